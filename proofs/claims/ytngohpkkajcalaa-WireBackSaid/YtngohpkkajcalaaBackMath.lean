/- Reading what was written: each thing as it is, or cut short by a byte. -/
import Derived.Test.YtngohpkkajcalaaReaderA
import Derived.Test.YtngohpkkajcalaaPuts
namespace Go.Proofs.Ytngohpkkajcalaa
open Go.RowKit
/-- What is read of p at A in T: the place behind it and the error; without one it is p. -/
structure Got (T : ByteArray) (p : Pt) (A A' E' : Int) : Prop where
  num : p.kd = 0 → ∃ R, numF T A 0 72057594037927935 = (R, A', E') ∧ (E' = 0 → R = p.n)
  text : p.kd = 1 → ∃ R, textF T A 300 = (R, A', E') ∧ (E' = 0 → R = p.s)
  hash : p.kd ≠ 0 → p.kd ≠ 1 → ∃ R : List UInt8, R.length = 32 ∧ hashG T A 0 = (hrow R, A', E') ∧ (E' = 0 → R = p.h)
theorem bytes_n {p : Pt} (hb : p.bad = false) (h0 : p.kd = 0) : ∃ x : Nat, p.n = x ∧ x ≤ 72057594037927935 ∧ p.bytes = putL x := by
  have he : encB p.n = true := by
    rw [Pt.bad, h0] at hb
    simpa using hb
  have hx : 0 ≤ p.n ∧ p.n ≤ 72057594037927935 := of_decide_eq_true he
  refine ⟨p.n.toNat, by omega, by omega, ?_⟩
  rw [Pt.bytes, if_pos h0, show ((p.n.toNat : Nat) : Int) = p.n by omega]
theorem bytes_t {p : Pt} (h1 : p.kd = 1) : p.bytes = putL ((p.s.size : Nat) : Int) ++ p.s.data.toList := by
  rw [Pt.bytes, if_neg (by omega), if_pos h1]
theorem bytes_h {p : Pt} (h0 : p.kd ≠ 0) (h1 : p.kd ≠ 1) : p.bytes = p.h := by
  rw [Pt.bytes, if_neg h0, if_neg h1]
theorem bytes_pos {p : Pt} (hb : p.bad = false) : 0 < p.bytes.length := by
  have hg : ∀ x : Nat, x ≤ 72057594037927935 → 0 < (putL (x : Int)).length := fun x hx => by
    unfold putL; rw [if_pos (by unfold encB; exact decide_eq_true (by omega))]; exact grp_pos _ _
  by_cases h0 : p.kd = 0
  · obtain ⟨x, _, hx, h⟩ := bytes_n hb h0; rw [h]; exact hg x hx
  by_cases h1 : p.kd = 1
  · rw [bytes_t h1, List.length_append, str_len]
    rcases Nat.eq_zero_or_pos p.s.size with h | h
    · have := hg p.s.size (by omega); omega
    · omega
  · rw [bytes_h h0 h1, p.hl]; omega
theorem extract_mid {T s : ByteArray} {A B : List UInt8} (h : T.data.toList = A ++ s.data.toList ++ B) : T.extract A.length (A.length + s.size) = s := by
  apply ByteArray.ext
  apply Array.ext'
  have e : (T.extract A.length (A.length + s.size)).data.toList = (T.data.toList.drop A.length).take (A.length + s.size - A.length) := by simp
  rw [e, h, List.append_assoc, List.drop_left, show A.length + s.size - A.length = s.data.toList.length by rw [str_len]; omega, List.take_left]
theorem got_good {T : ByteArray} {p : Pt} {A B : List UInt8} (hT : T.data.toList = A ++ p.bytes ++ B) (hb : p.bad = false) (hs : p.s.size ≤ 300) : Got T p A.length ((A.length + p.bytes.length : Nat) : Int) 0 := by
  have hsz : T.size = A.length + p.bytes.length + B.length := by rw [← str_len, hT, List.length_append, List.length_append]
  refine ⟨fun h0 => ?_, fun h1 => ?_, fun h0 h1 => ?_⟩
  · obtain ⟨x, hx1, hx2, hx3⟩ := bytes_n hb h0
    rw [hx3] at hT ⊢
    have hn := next_put (A := A) (B := B) hx2
    rw [← hT] at hn
    exact ⟨_, numF_in hn (by omega), fun _ => hx1.symm⟩
  · have hpt := bytes_t h1
    rw [hpt] at hT hsz ⊢
    have hn := next_put (A := A) (B := p.s.data.toList ++ B) (show p.s.size ≤ 72057594037927935 by omega)
    rw [show A ++ putL ((p.s.size : Nat) : Int) ++ (p.s.data.toList ++ B) = T.data.toList by rw [hT]; simp] at hn
    refine ⟨p.s, ?_, fun _ => rfl⟩
    unfold textF
    rw [hn]
    rw [List.length_append, str_len] at hsz ⊢
    simp only [if_pos trivial]
    rw [if_neg (by omega), if_neg (by omega)]
    have hx := extract_mid (T := T) (s := p.s) (A := A ++ putL ((p.s.size : Nat) : Int)) (B := B) (by rw [hT]; simp)
    rw [List.length_append] at hx
    rw [show (((A.length + (putL ((p.s.size : Nat) : Int)).length : Nat) : Int) + (p.s.size : Int)) = ((A.length + (putL ((p.s.size : Nat) : Int)).length + p.s.size : Nat) : Int) by omega]
    simp only [Int.toNat_natCast]
    rw [hx, Nat.add_assoc]
  · have hph := bytes_h h0 h1
    have hl := p.hl
    rw [hph] at hT hsz ⊢
    refine ⟨p.h, hl, ?_, fun _ => rfl⟩
    unfold hashG
    rw [if_pos rfl, if_neg (by omega)]
    have e : hashL T (A.length : Nat) = p.h := by
      unfold hashL
      rw [hT, Int.toNat_natCast, List.append_assoc, List.drop_left, ← hl, List.take_left]
    rw [e, hl]; rfl
theorem next_cut {A : List UInt8} {x : Nat} (hx : x ≤ 72057594037927935) : nextS (A ++ (putL (x : Int)).take ((putL (x : Int)).length - 1)) A.length = (0, 0, 2) := by
  have hpos : 0 < (putL (x : Int)).length := by
    unfold putL; rw [if_pos (by unfold encB; exact decide_eq_true (by omega))]; exact grp_pos _ _
  have hn := next_put (A := A) (B := []) hx
  obtain ⟨i, m, y, e1, _, e3, _, _, _, _, hcut⟩ := next_ok hn
  have := hcut (A.length + (putL (x : Int)).length - 1) (by omega) (by omega)
  rw [List.append_nil, show A.length + (putL (x : Int)).length - 1 = A.length + ((putL (x : Int)).length - 1) by omega, List.take_length_add_append] at this
  exact this
theorem got_short {T : ByteArray} {p : Pt} {A : List UInt8} (hT : T.data.toList = A ++ p.bytes.take (p.bytes.length - 1)) (hb : p.bad = false) (hs : p.s.size ≤ 300) : Got T p A.length A.length 2 := by
  have hpos := bytes_pos hb
  have hsz : T.size = A.length + (p.bytes.length - 1) := by rw [← str_len, hT]; simp
  refine ⟨fun h0 => ?_, fun h1 => ?_, fun h0 h1 => ?_⟩
  · obtain ⟨x, hx1, hx2, hx3⟩ := bytes_n hb h0
    rw [hx3] at hT
    have hn := next_cut (A := A) hx2
    rw [← hT] at hn
    exact ⟨_, numF_err hn (by decide), fun e => by cases e⟩
  · have hpt := bytes_t h1
    rcases Nat.eq_zero_or_pos p.s.size with h | h
    · have hnil : p.s.data.toList = [] := List.eq_nil_of_length_eq_zero (by rw [str_len]; exact h)
      rw [hpt, hnil, List.append_nil] at hT
      have hn := next_cut (A := A) (show p.s.size ≤ 72057594037927935 by omega)
      rw [← hT] at hn
      refine ⟨⟨#[]⟩, ?_, fun e => by cases e⟩
      unfold textF; rw [hn]; rfl
    · have hx : (putL ((p.s.size : Nat) : Int) ++ p.s.data.toList).take ((putL ((p.s.size : Nat) : Int) ++ p.s.data.toList).length - 1) = putL ((p.s.size : Nat) : Int) ++ p.s.data.toList.take (p.s.size - 1) := by
        rw [List.length_append, str_len, show (putL ((p.s.size : Nat) : Int)).length + p.s.size - 1 = (putL ((p.s.size : Nat) : Int)).length + (p.s.size - 1) by omega, List.take_length_add_append]
      rw [hpt, hx, ← List.append_assoc] at hT
      have hn := next_put (A := A) (B := p.s.data.toList.take (p.s.size - 1)) (show p.s.size ≤ 72057594037927935 by omega)
      rw [← hT] at hn
      rw [hpt, List.length_append, str_len] at hsz
      refine ⟨⟨#[]⟩, ?_, fun e => by cases e⟩
      unfold textF
      rw [hn]
      simp only [if_pos trivial]
      rw [if_neg (by omega), if_pos (by omega)]
  · have hph := bytes_h h0 h1
    have hl := p.hl
    rw [hph] at hsz
    refine ⟨List.replicate 32 0, by simp, ?_, fun e => by cases e⟩
    unfold hashG
    rw [if_pos rfl, if_pos (by omega)]
    rw [show zrow = hrow (List.replicate 32 0) from zrow_hrow]
def pos (ps : List Pt) (k : Nat) : Int := ((outs (ps.take k)).length : Nat)
theorem outs_append (a b : List Pt) : outs (a ++ b) = outs a ++ outs b := by simp [outs]
theorem outs_split {ps : List Pt} {k : Nat} (hk : k < ps.length) : outs ps = outs (ps.take k) ++ ps[k].bytes ++ outs (ps.drop (k + 1)) := by
  conv => lhs; rw [← List.take_append_drop k ps, List.drop_eq_getElem_cons hk, outs_append]
  rw [List.append_assoc]; rfl
theorem pos_succ {ps : List Pt} {k : Nat} (hk : k < ps.length) : pos ps (k + 1) = ((outs (ps.take k)).length + ps[k].bytes.length : Nat) := by
  unfold pos
  rw [List.take_add_one, List.getElem?_eq_getElem hk, show (some ps[k]).toList = [ps[k]] from rfl, outs_snoc, List.length_append]
theorem pos_all (ps : List Pt) : pos ps ps.length = ((outs ps).length : Nat) := by unfold pos; rw [List.take_length]
/-- What reading things from T comes to: sh: the last one is cut short. -/
structure Chain (T : ByteArray) (ps : List Pt) (sh : Bool) : Prop where
  one : ∀ k (hk : k < ps.length), (sh = true ∧ k + 1 = ps.length ∧ Got T ps[k] (pos ps k) (pos ps k) 2) ∨ ((sh = true → k + 1 < ps.length) ∧ Got T ps[k] (pos ps k) (pos ps (k + 1)) 0)
  inT : ∀ k, k ≤ ps.length → (sh = true → k < ps.length) → pos ps k ≤ T.size
  some : sh = true → 0 < ps.length
theorem anyBad_at {ps : List Pt} (h : anyBad ps = false) {k : Nat} (hk : k < ps.length) : ps[k].bad = false := by
  unfold anyBad at h
  rw [List.any_eq_false] at h
  simpa using h ps[k] (List.getElem_mem _)
theorem chain_more {T : ByteArray} {ps : List Pt} {B : List UInt8} (hT : T.data.toList = outs ps ++ B) (hb : anyBad ps = false) (hs : ∀ p ∈ ps, p.s.size ≤ 300) : Chain T ps false := by
  refine ⟨fun k hk => .inr ⟨(by simp), ?_⟩, fun k hk _ => ?_, by simp⟩
  · rw [pos_succ hk]
    exact got_good (B := outs (ps.drop (k + 1)) ++ B) (by rw [hT, outs_split hk]; simp) (anyBad_at hb hk) (hs _ (List.getElem_mem _))
  · have e : outs ps = outs (ps.take k) ++ outs (ps.drop k) := by rw [← outs_append, List.take_append_drop]
    unfold pos
    rw [← str_len, hT, e]; simp; omega
theorem chain_less {T : ByteArray} {ps : List Pt} (h0 : ps ≠ []) (hT : T.data.toList = (outs ps).take ((outs ps).length - 1)) (hb : anyBad ps = false) (hs : ∀ p ∈ ps, p.s.size ≤ 300) : Chain T ps true := by
  have hn : 0 < ps.length := List.length_pos_iff.2 h0
  have hsz : T.size = (outs ps).length - 1 := by rw [← str_len, hT]; simp
  have hlast : ∀ k (hk : k < ps.length), ps.drop (k + 1) ≠ [] → 0 < (outs (ps.drop (k + 1))).length := fun k hk hne => by
    have hk1 : k + 1 < ps.length := by
      rcases Nat.lt_or_ge (k + 1) ps.length with h | h
      · exact h
      · exact absurd (List.drop_eq_nil_of_le h) hne
    rw [List.drop_eq_getElem_cons hk1]
    have := bytes_pos (anyBad_at hb hk1)
    unfold outs
    rw [List.flatMap_cons, List.length_append]; omega
  refine ⟨fun k hk => ?_, fun k hk hlt => ?_, fun _ => hn⟩
  · by_cases hk1 : k + 1 < ps.length
    · refine .inr ⟨fun _ => hk1, ?_⟩
      have hp := hlast k hk (by intro e; have := congrArg List.length e; simp at this; omega)
      rw [pos_succ hk]
      refine got_good (B := (outs (ps.drop (k + 1))).take ((outs (ps.drop (k + 1))).length - 1)) ?_ (anyBad_at hb hk) (hs _ (List.getElem_mem _))
      have e := outs_split hk
      rw [hT, e, List.length_append, show (outs (ps.take k) ++ ps[k].bytes).length + (outs (ps.drop (k + 1))).length - 1 = (outs (ps.take k) ++ ps[k].bytes).length + ((outs (ps.drop (k + 1))).length - 1) by omega, List.take_length_add_append]
    · have hk2 : k + 1 = ps.length := by omega
      refine .inl ⟨rfl, hk2, got_short ?_ (anyBad_at hb hk) (hs _ (List.getElem_mem _))⟩
      have hp := bytes_pos (anyBad_at hb hk)
      have e := outs_split hk
      rw [List.drop_eq_nil_of_le (by omega), show outs [] = [] from rfl, List.append_nil] at e
      rw [hT, e, List.length_append, show (outs (ps.take k)).length + ps[k].bytes.length - 1 = (outs (ps.take k)).length + (ps[k].bytes.length - 1) by omega, List.take_length_add_append]
  · have hkl := hlt rfl
    have hp := bytes_pos (anyBad_at hb hkl)
    have e := outs_split hkl
    unfold pos
    rw [hsz, e]; simp; omega
end Go.Proofs.Ytngohpkkajcalaa
