/- States of ends: what they are in bytes, and what bytes read as. -/
import Derived.Test.YtfblbholkhdldaaDoorReaderA
import Derived.Test.YtfblbholkhdldaaDoorName
namespace Go.Proofs.YtfblbholkhdldaaDoor
open Go.RowKit
/-- The values of a state: port, channel, ordered, closed, stop. -/
structure St where
  p : ByteArray
  c : Int
  o : Bool
  cl : Bool
  st : Int
def St.zero : St := ⟨⟨#[]⟩, 0, false, false, 0⟩
def St.val (s : St) : Value := .agg #[.string s.p, .int .i64 s.c, .bool s.o, .bool s.cl, .int .i64 s.st]
def stopB (s : St) : Bool := bif s.o && s.cl then decide (1 ≤ s.st) && decide (s.st ≤ 1099511627777) else s.st == 0
def mayS (s : St) : Bool := mayE s.p s.c && stopB s
def bitN (b : Bool) : Nat := bif b then 1 else 0
def encS (s : St) : List UInt8 := putL (bitN s.cl) ++ putL (bitN s.o) ++ (putL (s.p.size : Int) ++ s.p.data.toList) ++ putL s.c ++ putL s.st
/-- What Encode answers. -/
def encV (s : St) : Value := bif mayS s then .tuple #[.string ⟨(encS s).toArray⟩, .int .i64 0] else .tuple #[.string ⟨#[]⟩, .int .i64 1]
structure Five where
  n1 : Int
  n2 : Int
  t : ByteArray
  c : Int
  st : Int
  e : Int
def five (v : ByteArray) : Five :=
  let x1 := numG v 0 0 0 1
  let x2 := numG v x1.2.1 x1.2.2 0 1
  let x3 := textG v x2.2.1 x2.2.2 12
  let x4 := numG v x3.2.1 x3.2.2 0 999
  let x5 := numG v x4.2.1 x4.2.2 0 1099511627777
  ⟨x1.1, x2.1, x3.1, x4.1, x5.1, endF v x5.2.1 x5.2.2⟩
def Five.state (f : Five) : St := ⟨f.t, f.c, f.n2 == 1, f.n1 == 1, f.st⟩
/-- What Decode answers: a state and an error. -/
def decS (v : ByteArray) : St × Int :=
  if (five v).e = 0 then (bif mayS (five v).state then ((five v).state, 0) else (St.zero, 1)) else (St.zero, (five v).e)
theorem numF_ok {s : ByteArray} {A lo hi R A' : Int} (h : numF s A lo hi = (R, A', 0)) :
    ∃ i m : Nat, A = i ∧ A' = ((i + m : Nat) : Int) ∧ i + m ≤ s.size ∧ putL R = (s.data.toList.drop i).take m ∧ lo ≤ R ∧ R ≤ hi ∧ encB R = true := by
  obtain ⟨v, n, er, hx⟩ : ∃ v n er, nextS s.data.toList A = (v, n, er) := ⟨_, _, _, rfl⟩
  by_cases he : er = 0
  · subst he
    by_cases ho : v < lo ∨ hi < v
    · rw [numF_out hx ho] at h; simp at h
    · rw [numF_in hx ho] at h
      simp only [Prod.mk.injEq, and_true] at h
      obtain ⟨rfl, rfl⟩ := h
      obtain ⟨i, m, x, h1, h2, h3, h4, h5, h6, h7, _⟩ := next_ok hx
      rw [str_len] at h5
      exact ⟨i, m, h1, h3, h5, h6, by omega, by omega, by unfold encB; exact decide_eq_true (by omega)⟩
  · rw [numF_err hx he] at h; simp at h; exact absurd h.2.2 he
theorem textF_ok {s t : ByteArray} {A most A' : Int} (h : textF s A most = (t, A', 0)) :
    ∃ i m : Nat, A = i ∧ A' = ((i + m : Nat) : Int) ∧ i + m ≤ s.size ∧ putL (t.size : Int) ++ t.data.toList = (s.data.toList.drop i).take m ∧ (t.size : Int) ≤ most := by
  obtain ⟨v, n, er, hx⟩ : ∃ v n er, nextS s.data.toList A = (v, n, er) := ⟨_, _, _, rfl⟩
  unfold textF at h
  rw [hx] at h
  by_cases he : er = 0
  · subst he
    simp only [if_pos trivial] at h
    by_cases ho : most < v
    · rw [if_pos ho] at h; simp at h
    rw [if_neg ho] at h
    by_cases hq : (s.size : Int) - n < v
    · rw [if_pos hq] at h; simp at h
    rw [if_neg hq] at h
    simp only [Prod.mk.injEq, and_true] at h
    obtain ⟨rfl, rfl⟩ := h
    obtain ⟨i, m, x, h1, h2, h3, h4, h5, h6, h7, _⟩ := next_ok hx
    rw [str_len] at h5
    subst h1 h2 h3
    have hts : (s.extract ((i + m : Nat) : Int).toNat (((i + m : Nat) : Int) + (x : Int)).toNat).size = x := by
      rw [Int.toNat_natCast, show (((i + m : Nat) : Int) + (x : Int)).toNat = i + m + x by omega]
      simp; omega
    have htl : (s.extract ((i + m : Nat) : Int).toNat (((i + m : Nat) : Int) + (x : Int)).toNat).data.toList = (s.data.toList.drop (i + m)).take x := by
      rw [Int.toNat_natCast, show (((i + m : Nat) : Int) + (x : Int)).toNat = i + m + x by omega]
      simp
    refine ⟨i, m + x, rfl, by omega, by omega, ?_, by rw [hts]; omega⟩
    rw [hts, htl, h6, List.take_add, List.drop_drop]
  · simp only [if_neg he] at h; simp at h; exact absurd h.2.2 he
theorem numG_ok {s : ByteArray} {A E lo hi R A' : Int} (h : numG s A E lo hi = (R, A', 0)) : E = 0 ∧ numF s A lo hi = (R, A', 0) := by
  unfold numG at h
  split at h
  · rename_i he; exact ⟨he, h⟩
  · rename_i he; simp at h; exact absurd h.2.2 he
theorem textG_ok {s t : ByteArray} {A E most A' : Int} (h : textG s A E most = (t, A', 0)) : E = 0 ∧ textF s A most = (t, A', 0) := by
  unfold textG at h
  split at h
  · rename_i he; exact ⟨he, h⟩
  · rename_i he; simp at h; exact absurd h.2.2 he
theorem endF_ok {s : ByteArray} {A E : Int} (h : endF s A E = 0) : E = 0 ∧ (s.size : Int) ≤ A := by
  unfold endF at h
  split at h
  · rename_i he
    split at h
    · cases h
    · exact ⟨he, by omega⟩
  · rename_i he; exact absurd h he
theorem take_step' (l : List UInt8) (i m : Nat) : l.take (i + m) = l.take i ++ (l.drop i).take m := List.take_add
theorem bit_of {n : Int} (h0 : 0 ≤ n) (h1 : n ≤ 1) : ((bitN (n == 1) : Nat) : Int) = n := by
  rcases (show n = 0 ∨ n = 1 by omega) with rfl | rfl <;> rfl
/-- What reads as a state is the state's bytes. -/
theorem five_enc {v : ByteArray} (h : (five v).e = 0) : encS (five v).state = v.data.toList := by
  obtain ⟨⟨r1, a1, e1⟩, h1⟩ : ∃ t, numG v 0 0 0 1 = t := ⟨_, rfl⟩
  obtain ⟨⟨r2, a2, e2⟩, h2⟩ : ∃ t, numG v a1 e1 0 1 = t := ⟨_, rfl⟩
  obtain ⟨⟨r3, a3, e3⟩, h3⟩ : ∃ t, textG v a2 e2 12 = t := ⟨_, rfl⟩
  obtain ⟨⟨r4, a4, e4⟩, h4⟩ : ∃ t, numG v a3 e3 0 999 = t := ⟨_, rfl⟩
  obtain ⟨⟨r5, a5, e5⟩, h5⟩ : ∃ t, numG v a4 e4 0 1099511627777 = t := ⟨_, rfl⟩
  have hf : five v = ⟨r1, r2, r3, r4, r5, endF v a5 e5⟩ := by
    unfold five
    simp only [h1, h2, h3, h4, h5]
  rw [hf] at h ⊢
  simp only at h
  obtain ⟨rfl, hend⟩ := endF_ok h
  obtain ⟨rfl, g5⟩ := numG_ok h5
  obtain ⟨rfl, g4⟩ := numG_ok h4
  obtain ⟨rfl, g3⟩ := textG_ok h3
  obtain ⟨rfl, g2⟩ := numG_ok h2
  obtain ⟨_, g1⟩ := numG_ok h1
  obtain ⟨i1, m1, z1, rfl, l1, p1, lo1, hi1, _⟩ := numF_ok g1
  obtain ⟨i2, m2, z2, rfl, l2, p2, lo2, hi2, _⟩ := numF_ok g2
  obtain ⟨i3, m3, z3, rfl, l3, p3, _⟩ := textF_ok g3
  obtain ⟨i4, m4, z4, rfl, l4, p4, _⟩ := numF_ok g4
  obtain ⟨i5, m5, z5, rfl, l5, p5, _⟩ := numF_ok g5
  obtain rfl : i1 = 0 := by omega
  obtain rfl : i2 = 0 + m1 := by omega
  obtain rfl : i3 = 0 + m1 + m2 := by omega
  obtain rfl : i4 = 0 + m1 + m2 + m3 := by omega
  obtain rfl : i5 = 0 + m1 + m2 + m3 + m4 := by omega
  have hfull : v.data.toList = v.data.toList.take (0 + m1 + m2 + m3 + m4 + m5) := by
    rw [List.take_of_length_le (by rw [str_len]; omega)]
  rw [hfull, take_step', take_step' _ (0 + m1 + m2 + m3), take_step' _ (0 + m1 + m2), take_step' _ (0 + m1), take_step' _ 0, ← p5, ← p4, ← p3, ← p2, ← p1]
  unfold encS Five.state
  simp only [bit_of lo1 hi1, bit_of lo2 hi2]
  simp
theorem mayS_bounds {s : St} (h : mayS s = true) : mayE s.p s.c = true ∧ stopB s = true ∧ 0 ≤ s.st ∧ s.st ≤ 1099511627777 := by
  unfold mayS at h
  rw [Bool.and_eq_true] at h
  refine ⟨h.1, h.2, ?_⟩
  have h2 := h.2
  unfold stopB at h2
  cases hb : s.o && s.cl
  · rw [hb] at h2; simp at h2; omega
  · rw [hb] at h2; simp at h2; omega
theorem mayE_bounds {p : ByteArray} {c : Int} (h : mayE p c = true) : p.size ≤ 12 ∧ 0 ≤ c ∧ c ≤ 999 := by
  unfold mayE nmB nameP at h
  simp only [Bool.and_eq_true, decide_eq_true_eq] at h
  rw [str_len] at h
  omega
/-- A state's bytes, with more behind them, read as the state. -/
theorem numF_at {v : ByteArray} {A B : List UInt8} {x : Nat} {lo hi : Int} (hv : v.data.toList = A ++ putL (x : Int) ++ B) (hx : x ≤ 72057594037927935) (h1 : lo ≤ (x : Int)) (h2 : (x : Int) ≤ hi) :
    numG v A.length 0 lo hi = ((x : Int), (((A ++ putL (x : Int)).length : Nat) : Int), 0) := by
  unfold numG
  rw [if_pos rfl]
  have hn := next_put (A := A) (B := B) hx
  rw [← hv] at hn
  rw [numF_in hn (by omega), List.length_append]
theorem extract_mid' {T s : ByteArray} {A B : List UInt8} (h : T.data.toList = A ++ s.data.toList ++ B) : T.extract A.length (A.length + s.size) = s := by
  apply ByteArray.ext
  apply Array.ext'
  have e : (T.extract A.length (A.length + s.size)).data.toList = (T.data.toList.drop A.length).take (A.length + s.size - A.length) := by simp
  rw [e, h, List.append_assoc, List.drop_left, show A.length + s.size - A.length = s.data.toList.length by rw [str_len]; omega, List.take_left]
theorem textF_at {v t : ByteArray} {A B : List UInt8} {most : Int} (hv : v.data.toList = A ++ (putL (t.size : Int) ++ t.data.toList) ++ B) (ht : t.size ≤ 1000000) (h2 : (t.size : Int) ≤ most) :
    textG v A.length 0 most = (t, (((A ++ (putL (t.size : Int) ++ t.data.toList)).length : Nat) : Int), 0) := by
  unfold textG textF
  rw [if_pos rfl]
  have hn := next_put (A := A) (B := t.data.toList ++ B) (show t.size ≤ 72057594037927935 by omega)
  rw [show A ++ putL ((t.size : Nat) : Int) ++ (t.data.toList ++ B) = v.data.toList by rw [hv]; simp] at hn
  have hsz : v.size = A.length + (putL (t.size : Int)).length + t.size + B.length := by rw [← str_len, hv]; simp; omega
  rw [hn]
  simp only [if_pos trivial]
  rw [if_neg (by omega), if_neg (by omega)]
  have hx := extract_mid' (T := v) (s := t) (A := A ++ putL ((t.size : Nat) : Int)) (B := B) (by rw [hv]; simp)
  rw [List.length_append] at hx
  rw [show (((A.length + (putL ((t.size : Nat) : Int)).length : Nat) : Int) + (t.size : Int)) = ((A.length + (putL ((t.size : Nat) : Int)).length + t.size : Nat) : Int) by omega]
  simp only [Int.toNat_natCast]
  rw [hx, List.length_append, List.length_append, str_len, Nat.add_assoc]
theorem bitN_le (b : Bool) : bitN b ≤ 1 := by cases b <;> decide
theorem five_of {s : St} (hs : mayS s = true) {v : ByteArray} {B : List UInt8} (hv : v.data.toList = encS s ++ B) : five v = ⟨bitN s.cl, bitN s.o, s.p, s.c, s.st, if B = [] then 0 else 3⟩ := by
  obtain ⟨hE, _, hst0, hst1⟩ := mayS_bounds hs
  obtain ⟨hp, hc0, hc1⟩ := mayE_bounds hE
  obtain ⟨cN, hcN⟩ : ∃ x : Nat, s.c = x := ⟨s.c.toNat, by omega⟩
  obtain ⟨sN, hsN⟩ : ∃ x : Nat, s.st = x := ⟨s.st.toNat, by omega⟩
  have b1 := bitN_le s.cl
  have b2 := bitN_le s.o
  unfold encS at hv
  rw [hcN, hsN] at hv
  have h1 := numF_at (v := v) (A := []) (B := putL (bitN s.o) ++ (putL (s.p.size : Int) ++ s.p.data.toList) ++ putL (cN : Int) ++ putL (sN : Int) ++ B) (x := bitN s.cl) (lo := 0) (hi := 1) (by rw [hv]; simp) (by omega) (by omega) (by omega)
  have h2 := numF_at (v := v) (A := [] ++ putL (bitN s.cl)) (B := (putL (s.p.size : Int) ++ s.p.data.toList) ++ putL (cN : Int) ++ putL (sN : Int) ++ B) (x := bitN s.o) (lo := 0) (hi := 1) (by rw [hv]; simp) (by omega) (by omega) (by omega)
  have h3 := textF_at (v := v) (t := s.p) (A := [] ++ putL (bitN s.cl) ++ putL (bitN s.o)) (B := putL (cN : Int) ++ putL (sN : Int) ++ B) (most := 12) (by rw [hv]; simp) (by omega) (by omega)
  have h4 := numF_at (v := v) (A := [] ++ putL (bitN s.cl) ++ putL (bitN s.o) ++ (putL (s.p.size : Int) ++ s.p.data.toList)) (B := putL (sN : Int) ++ B) (x := cN) (lo := 0) (hi := 999) (by rw [hv]; simp) (by omega) (by omega) (by omega)
  have h5 := numF_at (v := v) (A := [] ++ putL (bitN s.cl) ++ putL (bitN s.o) ++ (putL (s.p.size : Int) ++ s.p.data.toList) ++ putL (cN : Int)) (B := B) (x := sN) (lo := 0) (hi := 1099511627777) (by rw [hv]; simp) (by omega) (by omega) (by omega)
  have hsz : v.size = ([] ++ putL (bitN s.cl) ++ putL (bitN s.o) ++ (putL (s.p.size : Int) ++ s.p.data.toList) ++ putL (cN : Int) ++ putL (sN : Int)).length + B.length := by rw [← str_len, hv]; simp only [List.nil_append, List.length_append]
  unfold five
  rw [show ((([] : List UInt8).length : Nat) : Int) = 0 from rfl] at h1
  simp only [h1, h2, h3, h4, h5, hcN, hsN]
  congr 1
  unfold endF
  rw [if_pos rfl, hsz]
  cases B with
  | nil => rw [if_neg (by simp), if_pos rfl]
  | cons b B => rw [if_pos (by simp; omega), if_neg (by simp)]
theorem state_of {s : St} (e : Int) : Five.state ⟨bitN s.cl, bitN s.o, s.p, s.c, s.st, e⟩ = s := by
  unfold Five.state
  cases s with
  | mk p c o cl st => cases o <;> cases cl <;> rfl
theorem decS_enc {s : St} (hs : mayS s = true) {v : ByteArray} (hv : v.data.toList = encS s) : decS v = (s, 0) := by
  have h := five_of hs (B := []) (by rw [hv]; simp)
  unfold decS
  rw [h]
  simp only [if_pos trivial]
  rw [state_of, hs]; rfl
theorem decS_more {s : St} (hs : mayS s = true) {v : ByteArray} {b : UInt8} {B : List UInt8} (hv : v.data.toList = encS s ++ (b :: B)) : decS v = (St.zero, 3) := by
  have h := five_of hs hv
  unfold decS
  rw [h]
  simp
theorem decS_back {v : ByteArray} (h : (decS v).2 = 0) : mayS (decS v).1 = true ∧ encS (decS v).1 = v.data.toList := by
  unfold decS at h ⊢
  by_cases he : (five v).e = 0
  · rw [if_pos he] at h ⊢
    cases hm : mayS (five v).state
    · rw [hm] at h; cases h
    · simp only [cond_true]
      exact ⟨hm, five_enc he⟩
  · rw [if_neg he] at h; exact absurd h he
theorem decS_err {v : ByteArray} (h : (decS v).2 ≠ 0) : (decS v).1 = St.zero := by
  unfold decS at h ⊢
  by_cases he : (five v).e = 0
  · rw [if_pos he] at h ⊢
    cases hm : mayS (five v).state
    · rfl
    · rw [hm] at h; exact absurd rfl h
  · rw [if_neg he]
theorem encS_len {s : St} (hs : mayS s = true) : (encS s).length ≤ 52 := by
  obtain ⟨hE, _, _⟩ := mayS_bounds hs
  obtain ⟨hp, _⟩ := mayE_bounds hE
  have hl : ∀ v : Int, (putL v).length ≤ 8 := fun v => by
    unfold putL
    split
    · exact grp_le _ _
    · simp
  have a1 := hl (bitN s.cl); have a2 := hl (bitN s.o); have a3 := hl (s.p.size : Int); have a4 := hl s.c; have a5 := hl s.st
  unfold encS
  simp only [List.length_append, str_len]; omega
end Go.Proofs.YtfblbholkhdldaaDoor
