/- What a Writer has of things that were put into it; the document's bytes of them. -/
import Derived.Test.YtngohpkkajcalaaWriterK
import Derived.Test.YtngohpkkajcalaaPtOpen
import Derived.Test.YtngohpkkajcalaaReaderV
import Derived.Deep.Cut
import Derived.WalkKit
import Derived.ProofKit
import Derived.Handy
import Derived.Below
import Derived.BigQuiet
import Derived.Lib.Hide
import Derived.IntWalk
import Derived.Outline
import Derived.WalkLawsBesides
import Derived.WalkSpells
namespace Go.Proofs.Ytngohpkkajcalaa
open Go.RowKit
attribute [local go_sem] strV
def Pt.bad (p : Pt) : Bool := p.kd == 0 && !(encB p.n)
def Pt.bytes (p : Pt) : List UInt8 := if p.kd = 0 then putL p.n else if p.kd = 1 then putL (p.s.size : Int) ++ p.s.data.toList else p.h
def anyBad (ps : List Pt) : Bool := ps.any Pt.bad
def outs (ps : List Pt) : List UInt8 := ps.flatMap Pt.bytes
theorem anyBad_snoc (ps : List Pt) (p : Pt) : anyBad (ps ++ [p]) = (anyBad ps || p.bad) := by simp [anyBad, List.any_append]
theorem outs_snoc (ps : List Pt) (p : Pt) : outs (ps ++ [p]) = outs ps ++ p.bytes := by simp [outs]
theorem putL_len (v : Int) : (putL v).length ≤ 8 := by
  unfold putL
  split
  · exact grp_le _ _
  · simp
theorem Pt.bytes_len (p : Pt) (hs : p.s.size ≤ 300) : p.bytes.length ≤ 308 := by
  unfold Pt.bytes
  split
  · have := putL_len p.n; omega
  · split
    · rw [List.length_append, str_len]; have := putL_len (p.s.size : Int); omega
    · have := p.hl; omega
theorem outs_len : ∀ (ps : List Pt), (∀ p ∈ ps, p.s.size ≤ 300) → (outs ps).length ≤ 308 * ps.length := by
  intro ps
  induction ps with
  | nil => intro _; simp [outs]
  | cons p ps ih =>
    intro h
    have h1 := ih (fun q hq => h q (List.mem_cons_of_mem _ hq))
    have h2 := p.bytes_len (h p (List.mem_cons_self ..))
    unfold outs at h1 ⊢
    rw [List.flatMap_cons, List.length_append, List.length_cons]; omega
/-- The Writer b, behind ps. -/
def WP (B b : Nat) (w : World) (ps : List Pt) : Prop := ∃ l, WAt B b w l (bif anyBad ps then 1 else 0) ∧ (anyBad ps = false → l = outs ps)
theorem WP.below {B b : Nat} {w w' : World} {ps : List Pt} (h : WP B b w ps) (hb : Below w.heap.size w w') : WP B b w' ps := by
  obtain ⟨l, h1, h2⟩ := h; exact ⟨l, h1.below hb, h2⟩
theorem WP.lt {B b : Nat} {w : World} {ps : List Pt} (h : WP B b w ps) : b < w.heap.size := by
  obtain ⟨l, h1, h2⟩ := h; exact h1.lt
theorem put_num (B b : Nat) (w : World) (ps : List Pt) (p : Pt) (h : WP B b w ps) (hBw : B ≤ w.heap.size) (hk : p.kd = 0) (hps : ∀ q ∈ ps, q.s.size ≤ 300) (hl : ps.length ≤ 30) :
    Calls Try.prog 26 #[.pointer (some ⟨b, 0, none⟩), .int .i64 p.n] w fun e w' => e = .returned (.tuple #[]) ∧ WP B b w' (ps ++ [p]) ∧ Below B w w' ∧ KW b w w' := by
  obtain ⟨l, h1, h2⟩ := h
  have hlen := outs_len ps hps
  cases hb : anyBad ps
  · rw [hb] at h1
    obtain rfl := h2 hb
    cases he : encB p.n
    · refine (wnum_badk B b w _ p.n h1 hBw he).mono ?_
      rintro e w' ⟨rfl, h3, h4, h5⟩
      have hbad : anyBad (ps ++ [p]) = true := by rw [anyBad_snoc, Pt.bad, he, hk]; simp
      exact ⟨rfl, ⟨_, by rw [hbad]; exact h3, fun e => by rw [hbad] at e; cases e⟩, h4, h5⟩
    · have hx : 0 ≤ p.n ∧ p.n ≤ 72057594037927935 := by unfold encB at he; have := of_decide_eq_true he; omega
      obtain ⟨x, hxe⟩ : ∃ x : Nat, p.n = x := ⟨p.n.toNat, by omega⟩
      rw [hxe]
      refine (wnum_k B b w _ x h1 hBw (by omega) (by omega)).mono ?_
      rintro e w' ⟨rfl, h3, h4, h5⟩
      have hbad : anyBad (ps ++ [p]) = false := by rw [anyBad_snoc, Pt.bad, he, hb]; simp
      refine ⟨rfl, ⟨_, by rw [hbad]; exact h3, fun _ => ?_⟩, h4, h5⟩
      rw [outs_snoc, Pt.bytes, if_pos hk, hxe]
  · rw [hb] at h1
    refine (wnum_err B b w l 1 p.n h1 rfl).mono ?_
    rintro e w' ⟨rfl, h3, h4⟩
    have hbad : anyBad (ps ++ [p]) = true := by rw [anyBad_snoc, hb]; rfl
    exact ⟨rfl, ⟨l, by rw [hbad]; exact h3, fun e => by rw [hbad] at e; cases e⟩, h4.mono hBw, KW.of h4⟩
theorem put_text (B b : Nat) (w : World) (ps : List Pt) (p : Pt) (h : WP B b w ps) (hBw : B ≤ w.heap.size) (hk : p.kd = 1) (hs : p.s.size ≤ 300) (hps : ∀ q ∈ ps, q.s.size ≤ 300) (hl : ps.length ≤ 30) :
    Calls Try.prog 27 #[.pointer (some ⟨b, 0, none⟩), .string p.s] w fun e w' => e = .returned (.tuple #[]) ∧ WP B b w' (ps ++ [p]) ∧ Below B w w' ∧ KW b w w' := by
  obtain ⟨l, h1, h2⟩ := h
  have hlen := outs_len ps hps
  have hpb : p.bad = false := by rw [Pt.bad, hk]; rfl
  cases hb : anyBad ps
  · rw [hb] at h1
    obtain rfl := h2 hb
    refine (wtext_k B b w _ p.s h1 hBw (by omega) (by omega)).mono ?_
    rintro e w' ⟨rfl, h3, h4, h5⟩
    have hbad : anyBad (ps ++ [p]) = false := by rw [anyBad_snoc, hpb, hb]; rfl
    refine ⟨rfl, ⟨_, by rw [hbad]; exact h3, fun _ => ?_⟩, h4, h5⟩
    rw [outs_snoc, Pt.bytes, if_neg (by omega), if_pos hk, List.append_assoc]
  · rw [hb] at h1
    refine (wtext_err B b w l 1 p.s h1 rfl (by unfold maxLen; omega)).mono ?_
    rintro e w' ⟨rfl, h3, h4⟩
    have hbad : anyBad (ps ++ [p]) = true := by rw [anyBad_snoc, hb]; rfl
    exact ⟨rfl, ⟨l, by rw [hbad]; exact h3, fun e => by rw [hbad] at e; cases e⟩, h4.mono hBw, KW.of h4⟩
theorem put_hash (B b : Nat) (w : World) (ps : List Pt) (p : Pt) (h : WP B b w ps) (hBw : B ≤ w.heap.size) (hk0 : p.kd ≠ 0) (hk1 : p.kd ≠ 1) (hps : ∀ q ∈ ps, q.s.size ≤ 300) (hl : ps.length ≤ 30) :
    Calls Try.prog 28 #[.pointer (some ⟨b, 0, none⟩), .agg (hrow p.h)] w fun e w' => e = .returned (.tuple #[]) ∧ WP B b w' (ps ++ [p]) ∧ Below B w w' ∧ KW b w w' := by
  obtain ⟨l, h1, h2⟩ := h
  have hlen := outs_len ps hps
  have hpb : p.bad = false := by rw [Pt.bad, beq_eq_false_iff_ne.2 hk0]; rfl
  cases hb : anyBad ps
  · rw [hb] at h1
    obtain rfl := h2 hb
    refine (whash_k B b w _ p.h p.hl hBw h1 (by omega)).mono ?_
    rintro e w' ⟨rfl, h3, h4, h5⟩
    have hbad : anyBad (ps ++ [p]) = false := by rw [anyBad_snoc, hpb, hb]; rfl
    refine ⟨rfl, ⟨_, by rw [hbad]; exact h3, fun _ => ?_⟩, h4, h5⟩
    rw [outs_snoc, Pt.bytes, if_neg hk0, if_neg hk1]
  · rw [hb] at h1
    refine (whash_errk B b w l p.h p.hl 1 h1 rfl).mono ?_
    rintro e w' ⟨rfl, h3, h4⟩
    have hbad : anyBad (ps ++ [p]) = true := by rw [anyBad_snoc, hb]; rfl
    exact ⟨rfl, ⟨l, by rw [hbad]; exact h3, fun e => by rw [hbad] at e; cases e⟩, h4.mono hBw, KW.of h4⟩
/-- Few, and short. -/
def fewB (ps : List Pt) : Bool := decide (ps.length ≤ 30) && ps.all fun p => decide (p.s.size ≤ 300)
set_option maxRecDepth 100000 in
set_option maxHeartbeats 1600000 in
theorem few_any (a : Option Addr) (n cap : Nat) (ps : List Pt) (w : World) (hr : RowAt w a (ps.flatMap Pt.cells)) (hn : ps.length = n) (hss : ∀ p ∈ ps, p.s.size ≤ maxLen) :
    Calls Try.prog 9 #[.slice a n cap] w fun e w' => e = .returned (.bool (fewB ps)) ∧ w' = w := by
  have HN := Lib.hid hn
  by_cases h30 : 30 < n
  · have hF : fewB ps = false := by unfold fewB; rw [decide_eq_false (by omega)]; rfl
    rw [hF]; clear hF hn
    go_enter Try.func9, Try.ntmps9
    go_wp2
    go_ret
    exact ⟨rfl, rfl⟩
  obtain ⟨r, hF⟩ : ∃ r, (ps.all fun p => decide (p.s.size ≤ 300)) = r := ⟨_, rfl⟩
  have hF2 : fewB ps = r := by unfold fewB; rw [decide_eq_true (by omega)]; exact hF
  rw [hF2]; clear hn hF2
  have HF := Lib.hid hF
  clear hF
  go_enter Try.func9, Try.ntmps9
  go_wp2
  go_loopw [3] (fun i W => ∃ k : Nat, k ≤ n ∧ ((ps.take k).all fun p => decide (p.s.size ≤ 300)) = true ∧ i = .int .i64 k ∧ W = w) (fun i _ => n - (intOf i).toNat)
  case atStart => exact ⟨0, by omega, by simp, rfl, rfl⟩
  case round =>
    obtain ⟨k, hk, hall, rfl, rfl⟩ := hrel
    by_cases hlt : k < n
    · have hkl : k < ps.length := by rw [HN.out]; exact hlt
      obtain ⟨b, off, rfl, hb, hrg⟩ := pt_at hr hkl
      obtain ⟨p, hp⟩ : ∃ p, ps[k] = p := ⟨_, rfl⟩
      rw [hp] at hrg
      have c2 := Pt.at2 hrg
      have hps : p.s.size ≤ maxLen := hss p (by rw [← hp]; exact List.getElem_mem _)
      by_cases h300 : 300 < p.s.size
      · have hF : (ps.all fun p => decide (p.s.size ≤ 300)) = false := by
          rw [List.all_eq_false]; exact ⟨p, by rw [← hp]; exact List.getElem_mem _, by simp; omega⟩
        obtain rfl : false = r := hF.symm.trans HF.out
        clear hF
        go_wp2
        go_ret
        exact ⟨rfl, rfl⟩
      · go_wp2
        go_roundw
        case rel =>
          refine ⟨k + 1, by omega, ?_, by go_num, by first | rfl | trivial⟩
          rw [List.take_add_one, List.all_append, hall, List.getElem?_eq_getElem hkl, hp]
          simp; omega
        case measure => (simp [intOf]) <;> omega
    · have hF : (ps.all fun p => decide (p.s.size ≤ 300)) = true := by
        rw [← hall, List.take_of_length_le (by rw [HN.out]; omega)]
      obtain rfl : true = r := hF.symm.trans HF.out
      clear hF
      go_wp2
      go_ret
      exact ⟨rfl, rfl⟩
theorem fewB_spec {ps : List Pt} (h : fewB ps = true) : ps.length ≤ 30 ∧ ∀ p ∈ ps, p.s.size ≤ 300 := by
  unfold fewB at h
  rw [Bool.and_eq_true, decide_eq_true_eq, List.all_eq_true] at h
  exact ⟨h.1, fun p hp => by simpa using h.2 p hp⟩
set_option maxRecDepth 100000 in
set_option maxHeartbeats 1600000 in
theorem refPutText_any (s : ByteArray) (w : World) (hs : s.size ≤ 1000000) :
    Calls Try.prog 35 #[.string s] w fun e w' => e = .returned (strV (putL (s.size : Int) ++ s.data.toList)) ∧ Below w.heap.size w w' := by
  have hv : strV (putL (s.size : Int) ++ s.data.toList) = .string (⟨(putL (s.size : Int)).toArray⟩ ++ s) := by
    unfold strV; congr 1
  have hcat : ¬ 9223372036854775807 < (putL (s.size : Int)).length + s.size := by have := putL_len (s.size : Int); omega
  rw [hv]
  go_enter Try.func35, Try.ntmps35
  go_wp2_with (go_at_call 34; refine (putNum_any _ _).mono ?_; rintro e w1 ⟨rfl, hb1⟩)
  go_ret
  exact ⟨rfl, hb1⟩
end Go.Proofs.Ytngohpkkajcalaa
