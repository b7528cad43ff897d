/- SpanWhole walked. -/
import Derived.Test.YtdlngadcgcgenaaSp5
import Derived.BigRegion
import Derived.RegionTactic
import Derived.BigQuiet
import Derived.Deep.QuietTactic
import Derived.Deep.MidRow
import Derived.LoopTactic
import Derived.BigFrame
import Derived.Laws.OwnMore
import Derived.WalkKit
import Derived.ProofKit
import Derived.Handy
import Derived.Below
import Derived.Lib.Hide
import Derived.IntWalk
import Derived.Outline
import Derived.WalkLawsBesides
import Derived.WalkSpells
namespace Go.Proofs.Ytdlngadcgcgenaa
open Go.RowKit
attribute [local go_sem] strV
set_option linter.unusedVariables false
set_option maxRecDepth 100000 in
set_option maxHeartbeats 12800000 in
theorem walkSpanWhole (a : Option Addr) (n cap : Nat) (l : List (Int × Int)) (f t : Int) (w : World) (hr : RowAt w a (l.flatMap rgL)) (hn : l.length = n) (hm : n ≤ maxLen) (hf1 : -9223372036854775808 ≤ f) (hf2 : f ≤ 9223372036854775807) (ht1 : -9223372036854775808 ≤ t) (ht2 : t ≤ 9223372036854775807) :
    Calls Try.prog 3 #[.slice a n cap, .int .i64 f, .int .i64 t] w fun e w' => e = .returned (.bool true) ∧ Below w.heap.size w w' := by
  go_enter Try.func3, Try.ntmps3
  have hbel := Below.refl w.heap.size w
  have CG := fun W (hb : Below w.heap.size w W) => good_any a n cap l W (hr.below hb) hn hm
  obtain ⟨gd, hgd⟩ : ∃ r, goodR l = r := ⟨_, rfl⟩
  simp only [hgd] at CG
  have HGD := Lib.hid hgd
  have HN := Lib.hid hn
  clear hgd
  go_upto_region 3 with (go_at_call 8; refine (first23_any _).mono ?_; rintro e w2 ⟨rfl, hb⟩; have hbel := hbel.trans (hb.mono hbel.size); clear hb)
  by_cases h1 : 30 < n
  · have dh1 : decide (30 < (n : Int)) = true := decide_eq_true (by omega)
    have dh1n : decide (30 < n) = true := decide_eq_true h1
    go_wp2_with (first | (go_at_call 8; refine (first23_any _).mono ?_; rintro e w2 ⟨rfl, hb⟩; have hbel := hbel.trans (hb.mono hbel.size); clear hb) | (go_at_call 9; refine (CG _ hbel).mono ?_; rintro e w2 ⟨rfl, hb⟩; have hbel := hbel.trans (hb.mono hbel.size); clear hb))
    go_ret
    exact ⟨by first | rfl | simp, hbel⟩
  have dh1 : decide (30 < (n : Int)) = false := decide_eq_false (by omega)
  have dh1n : decide (30 < n) = false := decide_eq_false h1
  cases gd
  · go_wp2_with (first | (go_at_call 8; refine (first23_any _).mono ?_; rintro e w2 ⟨rfl, hb⟩; have hbel := hbel.trans (hb.mono hbel.size); clear hb) | (go_at_call 9; refine (CG _ hbel).mono ?_; rintro e w2 ⟨rfl, hb⟩; have hbel := hbel.trans (hb.mono hbel.size); clear hb))
    go_ret
    exact ⟨by first | rfl | simp, hbel⟩
  by_cases h2 : f < 0
  · have dh2 : decide (f < 0) = true := decide_eq_true (by omega)
    have dh2n : decide (f < 0) = true := decide_eq_true h2
    go_wp2_with (first | (go_at_call 8; refine (first23_any _).mono ?_; rintro e w2 ⟨rfl, hb⟩; have hbel := hbel.trans (hb.mono hbel.size); clear hb) | (go_at_call 9; refine (CG _ hbel).mono ?_; rintro e w2 ⟨rfl, hb⟩; have hbel := hbel.trans (hb.mono hbel.size); clear hb))
    go_ret
    exact ⟨by first | rfl | simp, hbel⟩
  have dh2 : decide (f < 0) = false := decide_eq_false (by omega)
  have dh2n : decide (f < 0) = false := decide_eq_false h2
  by_cases h3 : 72057594037927935 < f
  · have dh3 : decide (72057594037927935 < f) = true := decide_eq_true (by omega)
    have dh3n : decide (72057594037927935 < f) = true := decide_eq_true h3
    go_wp2_with (first | (go_at_call 8; refine (first23_any _).mono ?_; rintro e w2 ⟨rfl, hb⟩; have hbel := hbel.trans (hb.mono hbel.size); clear hb) | (go_at_call 9; refine (CG _ hbel).mono ?_; rintro e w2 ⟨rfl, hb⟩; have hbel := hbel.trans (hb.mono hbel.size); clear hb))
    go_ret
    exact ⟨by first | rfl | simp, hbel⟩
  have dh3 : decide (72057594037927935 < f) = false := decide_eq_false (by omega)
  have dh3n : decide (72057594037927935 < f) = false := decide_eq_false h3
  by_cases h4 : t < 0
  · have dh4 : decide (t < 0) = true := decide_eq_true (by omega)
    have dh4n : decide (t < 0) = true := decide_eq_true h4
    go_wp2_with (first | (go_at_call 8; refine (first23_any _).mono ?_; rintro e w2 ⟨rfl, hb⟩; have hbel := hbel.trans (hb.mono hbel.size); clear hb) | (go_at_call 9; refine (CG _ hbel).mono ?_; rintro e w2 ⟨rfl, hb⟩; have hbel := hbel.trans (hb.mono hbel.size); clear hb))
    go_ret
    exact ⟨by first | rfl | simp, hbel⟩
  have dh4 : decide (t < 0) = false := decide_eq_false (by omega)
  have dh4n : decide (t < 0) = false := decide_eq_false h4
  by_cases h5 : 72057594037927935 < t
  · have dh5 : decide (72057594037927935 < t) = true := decide_eq_true (by omega)
    have dh5n : decide (72057594037927935 < t) = true := decide_eq_true h5
    go_wp2_with (first | (go_at_call 8; refine (first23_any _).mono ?_; rintro e w2 ⟨rfl, hb⟩; have hbel := hbel.trans (hb.mono hbel.size); clear hb) | (go_at_call 9; refine (CG _ hbel).mono ?_; rintro e w2 ⟨rfl, hb⟩; have hbel := hbel.trans (hb.mono hbel.size); clear hb))
    go_ret
    exact ⟨by first | rfl | simp, hbel⟩
  have dh5 : decide (72057594037927935 < t) = false := decide_eq_false (by omega)
  have dh5n : decide (72057594037927935 < t) = false := decide_eq_false h5
  by_cases h6 : 300 < t - f
  · have dh6 : decide (300 < t - f) = true := decide_eq_true (by omega)
    have dh6n : decide (300 < t - f) = true := decide_eq_true h6
    go_wp2_with (first | (go_at_call 8; refine (first23_any _).mono ?_; rintro e w2 ⟨rfl, hb⟩; have hbel := hbel.trans (hb.mono hbel.size); clear hb) | (go_at_call 9; refine (CG _ hbel).mono ?_; rintro e w2 ⟨rfl, hb⟩; have hbel := hbel.trans (hb.mono hbel.size); clear hb))
    go_ret
    exact ⟨by first | rfl | simp, hbel⟩
  have dh6 : decide (300 < t - f) = false := decide_eq_false (by omega)
  have dh6n : decide (300 < t - f) = false := decide_eq_false h6
  have CL := fun W (hb : Below w.heap.size w W) => lacks_any a n cap l f t W (hr.below hb) hn (by omega) (by omega) (by omega)
  have hlk : lacksR l f t = lacksF f t l := by
    unfold lacksR
    rw [HGD.out, if_pos rfl]
    unfold maxN
    rw [show max f 0 = f by omega, show min t 72057594037927935 = t by omega]
  have hmg : goodR (lacksR l f t) = true := by rw [hlk]; exact lacks_good HGD.out (by omega) (by omega) (by unfold maxN; omega)
  have hmh : ∀ v, hasR (lacksR l f t) v = true ↔ (f ≤ v ∧ v ≤ t) ∧ hasR l v = false := fun v => by rw [hlk]; exact lacks_has HGD.out v
  have hml : (lacksR l f t).length ≤ 31 := by rw [hlk]; have := lacks_len (rs := l) (next := f) (to_ := t); omega
  obtain ⟨m, hm9⟩ : ∃ m, lacksR l f t = m := ⟨_, rfl⟩
  rw [hm9] at hmg hml
  simp only [hm9] at hmh CL
  obtain ⟨nm, hnm⟩ : ∃ z, m.length = z := ⟨_, rfl⟩
  rw [hnm] at hml
  simp only [hnm] at CL
  have CH : ∀ (v : Int) W, Below w.heap.size w W → Calls Try.prog 11 #[.slice a n cap, .int .i64 v] W fun e w' => e = .returned (.bool (hasR l v)) ∧ Below W.heap.size W w' := fun v W hb => has_any a n cap l v W (hr.below hb) hn hm
  have CM : ∀ (v : Int) (am : Option Addr) (cm : Nat) W, RowAt W am (m.flatMap rgL) → Calls Try.prog 11 #[.slice am nm cm, .int .i64 v] W fun e w' => e = .returned (.bool (hasR m v)) ∧ Below W.heap.size W w' := fun v am cm W hx => has_any am nm cm m v W hx hnm (by unfold maxLen; omega)
  have CG2 : ∀ (am : Option Addr) (cm : Nat) W, RowAt W am (m.flatMap rgL) → Calls Try.prog 9 #[.slice am nm cm] W fun e w' => e = .returned (.bool true) ∧ Below W.heap.size W w' := fun am cm W hx => by
    have := good_any am nm cm m W hx hnm (by unfold maxLen; omega)
    rw [hmg] at this
    exact this
  have hcnt : ∀ N : Nat, t < f + N → cntR m f N = countR m := fun N hN => cnt_all hmg (fun v hv => by have := (hmh v).1 hv; omega)
  have CC : ∀ (am : Option Addr) (cm : Nat) W, RowAt W am (m.flatMap rgL) → Calls Try.prog 12 #[.slice am nm cm] W fun e w' => e = .returned (.int .i64 (countR m)) ∧ Below W.heap.size W w' := fun am cm W hx => by
    have := count_any am nm cm m W hx hnm (by unfold maxLen; omega)
    rw [hmg, if_pos rfl] at this
    exact this
  have HMH := Lib.hid hmh
  have HCNT := Lib.hid hcnt
  have HNM := Lib.hid hnm
  clear hlk hmg hmh hm9 hcnt hnm CG
  go_upto_region 6 with (first | (go_at_call 8; refine (first23_any _).mono ?_; rintro e w2 ⟨rfl, hb⟩; have hbel := hbel.trans (hb.mono hbel.size); clear hb) | (go_at_call 9; refine (good_any a n cap l _ (hr.below hbel) hn hm).mono ?_; rintro e w2 ⟨rfl, hb⟩; rw [HGD.out]; have hbel := hbel.trans (hb.mono hbel.size); clear hb) | (go_at_call 10; refine (CL _ hbel).mono ?_; rintro e w3 ⟨vm, rfl, hom, hb⟩))
  have hbel := hbel.trans (hb.mono hbel.size)
  obtain ⟨am, cm, rfl, hrm, _⟩ := own_slice hom
  clear hb CL hom
  go_upto_region 9 with (go_at_call 9; refine (CG2 am cm _ hrm).mono ?_; rintro e w4 ⟨rfl, hb⟩)
  have hrm := hrm.below hb
  have hbel := hbel.trans (hb.mono hbel.size)
  clear hb CG2
  go_upto_region 10 with fail
  go_loopw [8, 9] (fun c v wr => ∃ (k : Nat), (f + k ≤ t + 1 ∨ k = 0) ∧ v = .int .i64 (f + k) ∧ c = .int .i64 (cntR m f k) ∧ 0 ≤ cntR m f k ∧ cntR m f k ≤ k ∧ RowAt wr am (m.flatMap rgL) ∧ Below w.heap.size w wr) (fun _ v _ => (t + 1 - intOf v).toNat)
  case atStart => exact ⟨0, .inr rfl, by simp, rfl, Int.le_refl _, Int.le_refl _, hrm, hbel⟩
  case round =>
    clear hrm hbel
    obtain ⟨k, hk, rfl, rfl, hc1, hc2, hrm, hbel⟩ := hrel
    obtain ⟨v, hv⟩ : ∃ v, f + (k : Int) = v := ⟨_, rfl⟩
    obtain ⟨C, hC⟩ : ∃ C, cntR m f k = C := ⟨_, rfl⟩
    rw [hC] at hc1 hc2
    simp only [hv, hC]
    have b1 : 0 ≤ v := by omega
    have b3 : C ≤ 400 := by omega
    by_cases hvt : v ≤ t
    · have d9 : decide (v ≤ t) = true := decide_eq_true hvt
      have b2 : v ≤ 72057594037927935 := by omega
      have hx := HMH.out v
      have hsn : cntR m f (k + 1) = C + (if hasR m v = true then 1 else 0) := by
        show cntR m f k + (if hasR m (f + (k : Int)) = true then 1 else 0) = _
        rw [hC, hv]
      have C1 := CH v
      have C2 := CM v
      obtain ⟨p, hp⟩ : ∃ p, hasR l v = p := ⟨_, rfl⟩
      obtain ⟨q, hq⟩ : ∃ q, hasR m v = q := ⟨_, rfl⟩
      rw [hp, hq] at hx
      rw [hq] at hsn
      simp only [hp] at C1
      simp only [hq] at C2
      have hpq : q = !p := by cases p <;> cases q <;> simp at hx ⊢ <;> omega
      subst hpq
      have HSN := Lib.hid hsn
      have HV := Lib.hid hv
      have HK := Lib.hid hk
      clear hx hsn hp hq hv hC hk
      have e1 : (p == !p) = false := by cases p <;> rfl
      cases p
      · go_wp2_with (first | (go_at_call 11; with_reducible refine (C1 _ hbel).mono ?_; rintro e w6 ⟨rfl, hb⟩; have hrm := hrm.below hb; have hbel := hbel.trans (hb.mono hbel.size); clear hb) | (go_at_call 11; with_reducible refine (C2 am cm _ hrm).mono ?_; rintro e w6 ⟨rfl, hb⟩; have hrm := hrm.below hb; have hbel := hbel.trans (hb.mono hbel.size); clear hb))
        go_roundw
        case rel => exact ⟨k + 1, .inl (by have := HV.out; omega), by have := HV.out; congr 1; push_cast; omega, by rw [HSN.out]; rfl, by rw [HSN.out]; simp; omega, by rw [HSN.out]; simp; omega, hrm, hbel⟩
        case measure => (simp [intOf]) <;> omega
      · go_wp2_with (first | (go_at_call 11; with_reducible refine (C1 _ hbel).mono ?_; rintro e w6 ⟨rfl, hb⟩; have hrm := hrm.below hb; have hbel := hbel.trans (hb.mono hbel.size); clear hb) | (go_at_call 11; with_reducible refine (C2 am cm _ hrm).mono ?_; rintro e w6 ⟨rfl, hb⟩; have hrm := hrm.below hb; have hbel := hbel.trans (hb.mono hbel.size); clear hb))
        go_roundw
        case rel => exact ⟨k + 1, .inl (by have := HV.out; omega), by have := HV.out; congr 1; push_cast; omega, by rw [HSN.out]; simp, by rw [HSN.out]; simp; omega, by rw [HSN.out]; simp; omega, hrm, hbel⟩
        case measure => (simp [intOf]) <;> omega
    have d9 : decide (v ≤ t) = false := decide_eq_false hvt
    have hCe : countR m = C := by rw [← hC]; exact (HCNT.out k (by omega)).symm
    rw [hCe] at CC
    have h7 : hasR m (f - 1) = false := by
      cases h8 : hasR m (f - 1) with
      | false => rfl
      | true => have := (HMH.out _).1 h8; omega
    have h9 : hasR m (t + 1) = false := by
      cases h8 : hasR m (t + 1) with
      | false => rfl
      | true => have := (HMH.out _).1 h8; omega
    have C1 := CM (f - 1)
    have C2 := CM (t + 1)
    rw [h7] at C1
    rw [h9] at C2
    have e1 : (C == C) = true := by simp
    clear CM h7 h9 hCe hC hv hk
    go_wp2_with (first | (go_at_call 12; with_reducible refine (CC am cm _ hrm).mono ?_; rintro e w6 ⟨rfl, hb⟩; have hrm := hrm.below hb; have hbel := hbel.trans (hb.mono hbel.size); clear hb) | (go_at_call 11; with_reducible refine (C1 am cm _ hrm).mono ?_; rintro e w6 ⟨rfl, hb⟩; have hrm := hrm.below hb; have hbel := hbel.trans (hb.mono hbel.size); clear hb) | (go_at_call 11; with_reducible refine (C2 am cm _ hrm).mono ?_; rintro e w6 ⟨rfl, hb⟩; have hrm := hrm.below hb; have hbel := hbel.trans (hb.mono hbel.size); clear hb))
    go_ret
    exact ⟨by first | rfl | simp, hbel⟩
end Go.Proofs.Ytdlngadcgcgenaa
