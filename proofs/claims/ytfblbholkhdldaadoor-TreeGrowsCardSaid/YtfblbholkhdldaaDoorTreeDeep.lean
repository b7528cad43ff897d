/- TreeDeep, walked; what the chapter's examples fix. -/
import Derived.Test.YtfblbholkhdldaaDoorTree
import Derived.Test.YtfblbholkhdldaaDoorTreeN
import Derived.WalkKit
import Derived.ProofKit
import Derived.Handy
import Derived.Below
import Derived.Lib.Hide
import Derived.IntWalk
import Derived.Outline
import Derived.WalkLawsBesides
import Derived.WalkSpells
namespace Go.Proofs.YtfblbholkhdldaaDoor
open Go.RowKit
attribute [local go_sem] strV
set_option linter.unusedVariables false
theorem half5 : halfI 5 = 4 := by decide +kernel
theorem half4 : halfI 4 = 2 := by decide +kernel
theorem half1 : halfI 1 = 0 := by decide +kernel
theorem deep54 : deepI 5 4 = 1 := by decide +kernel
theorem deep50 : deepI 5 0 = 3 := by decide +kernel
set_option maxRecDepth 100000 in
set_option maxHeartbeats 6400000 in
theorem first6_any (w : World) (hW : SW w) :
    Calls Tryd.prog 41 #[] w fun e w' => e = .returned (.bool true) ∧ Below w.heap.size w w' := by
  have hbel : Below w.heap.size w w := Below.refl _ _
  have C1 := fun W => half2_any 5 W
  have C2 := fun W => half2_any 4 W
  have C3 := fun W => half2_any 1 W
  have C4 := fun W => deep_any 5 4 W
  have C5 := fun W => deep_any 5 0 W
  rw [half5] at C1; rw [half4] at C2; rw [half1] at C3; rw [deep54] at C4; rw [deep50] at C5
  have C6 := fun W h => root_any 0 z32 W h rfl
  have C7 := fun W => refRoot_any 0 z32 W rfl
  obtain ⟨R, hR⟩ : ∃ R, rootF 0 z32 = R := ⟨_, rfl⟩
  have hRl : R.length = 32 := by rw [← hR]; exact rootF_len _ _
  rw [hR] at C6 C7
  rw [show hrow z32 = #[Value.int .u8 0, Value.int .u8 0, Value.int .u8 0, Value.int .u8 0, Value.int .u8 0, Value.int .u8 0, Value.int .u8 0, Value.int .u8 0, Value.int .u8 0, Value.int .u8 0, Value.int .u8 0, Value.int .u8 0, Value.int .u8 0, Value.int .u8 0, Value.int .u8 0, Value.int .u8 0, Value.int .u8 0, Value.int .u8 0, Value.int .u8 0, Value.int .u8 0, Value.int .u8 0, Value.int .u8 0, Value.int .u8 0, Value.int .u8 0, Value.int .u8 0, Value.int .u8 0, Value.int .u8 0, Value.int .u8 0, Value.int .u8 0, Value.int .u8 0, Value.int .u8 0, Value.int .u8 0] from rfl] at C6 C7
  clear hR
  have hEQ : ∀ V : World, (Op.equalIn 10000 26 (.agg (hrow R)) (.agg (hrow R))).run Tryd.prog V = .ok true V := fun V => by
    rw [run_equal_hash V 26 R R hRl hRl Tryd.underlying26 Tryd.underlying5 (by kernel_rfl)]; simp
  go_enter Tryd.func41, Tryd.ntmps41
  go_wp2_with (first | (go_at_call 42; first | (with_reducible refine (C1 _).mono ?_; rintro e w1 ⟨rfl, hb⟩; have hbel := hbel.trans (hb.mono hbel.size); have hW := hW.below hb; clear hb) | (with_reducible refine (C2 _).mono ?_; rintro e w1 ⟨rfl, hb⟩; have hbel := hbel.trans (hb.mono hbel.size); have hW := hW.below hb; clear hb) | (with_reducible refine (C3 _).mono ?_; rintro e w1 ⟨rfl, hb⟩; have hbel := hbel.trans (hb.mono hbel.size); have hW := hW.below hb; clear hb)) | (go_at_call 43; first | (with_reducible refine (C4 _).mono ?_; rintro e w1 ⟨rfl, hb⟩; have hbel := hbel.trans (hb.mono hbel.size); have hW := hW.below hb; clear hb) | (with_reducible refine (C5 _).mono ?_; rintro e w1 ⟨rfl, hb⟩; have hbel := hbel.trans (hb.mono hbel.size); have hW := hW.below hb; clear hb)) | (go_at_call 76; refine (C6 _ hW).mono ?_; rintro e w1 ⟨rfl, hb⟩; have hbel := hbel.trans (hb.mono hbel.size); have hW := hW.below hb; clear hb) | (go_at_call 77; refine (C7 _).mono ?_; rintro e w1 ⟨rfl, hb⟩; have hbel := hbel.trans (hb.mono hbel.size); have hW := hW.below hb; clear hb))
  go_ret
  exact ⟨rfl, hbel⟩
theorem and_half (n : Nat) (h : n ≤ 1073741824) (h2 : 2 ≤ n) : bits .and .i64 ((halfN n : Nat) : Int) (((halfN n : Nat) : Int) - 1) = 0 := by
  have hp := halfN_pos n
  have hl := halfN_lt h2
  have ha := halfN_and (n := n)
  rw [show (((halfN n : Nat) : Int) - 1) = ((halfN n - 1 : Nat) : Int) by omega]
  rw [i64_and_nat (halfN n) (halfN n - 1) (by omega) (by omega), ha]; rfl
set_option maxRecDepth 100000 in
set_option maxHeartbeats 12800000 in
theorem walkTreeDeep (n i : Int) (w : World) (hW : SW w) :
    Calls Tryd.prog 10 #[.int .i64 n, .int .i64 i] w fun e w' => e = .returned (.bool true) ∧ Below w.heap.size w w' := by
  have hbel : Below w.heap.size w w := Below.refl _ _
  have CH := fun W => half2_any n W
  have CD := fun W => deep_any n i W
  by_cases c1 : n < 2 ∨ 1073741824 < n
  · have h0 : halfI n = 0 := by unfold halfI; rw [if_pos c1]
    have d0 : deepI n i = 0 := by
      unfold deepI
      cases hB : insB n i
      · rfl
      · unfold insB at hB
        simp only [Bool.and_eq_true, decide_eq_true_eq] at hB
        simp only [cond_true]
        rw [deepN_small (by omega)]; rfl
    rw [h0] at CH
    rw [d0] at CD
    have d2 : decide (n < 2) = true ∨ (decide (n < 2) = false ∧ decide (1073741824 < n) = true) := by
      by_cases c : n < 2
      · exact .inl (decide_eq_true c)
      · exact .inr ⟨decide_eq_false c, decide_eq_true (by omega)⟩
    clear h0 d0
    rcases d2 with d2 | ⟨d2, d3⟩
    · go_enter Tryd.func10, Tryd.ntmps10
      go_wp2_with (first | (go_at_call 41; refine (first6_any _ hW).mono ?_; rintro e w0 ⟨rfl, hb⟩; have hW := hW.below hb; have hbel := hbel.trans (hb.mono hbel.size); clear hb) | (go_at_call 42; with_reducible refine (CH _).mono ?_; rintro e wh ⟨rfl, hb⟩; have hbel := hbel.trans (hb.mono hbel.size); clear hb) | (go_at_call 43; first | (with_reducible refine (CD _).mono ?_; rintro e wd ⟨rfl, hb⟩; have hbel := hbel.trans (hb.mono hbel.size); clear hb)))
      go_ret
      exact ⟨rfl, hbel⟩
    · go_enter Tryd.func10, Tryd.ntmps10
      go_wp2_with (first | (go_at_call 41; refine (first6_any _ hW).mono ?_; rintro e w0 ⟨rfl, hb⟩; have hW := hW.below hb; have hbel := hbel.trans (hb.mono hbel.size); clear hb) | (go_at_call 42; with_reducible refine (CH _).mono ?_; rintro e wh ⟨rfl, hb⟩; have hbel := hbel.trans (hb.mono hbel.size); clear hb) | (go_at_call 43; first | (with_reducible refine (CD _).mono ?_; rintro e wd ⟨rfl, hb⟩; have hbel := hbel.trans (hb.mono hbel.size); clear hb)))
      go_ret
      exact ⟨rfl, hbel⟩
  obtain ⟨N, rfl⟩ : ∃ m : Nat, n = m := ⟨n.toNat, by omega⟩
  have h2 : 2 ≤ N := by omega
  have h3 : N ≤ 1073741824 := by omega
  have h0 : halfI (N : Int) = ((halfN N : Nat) : Int) := by unfold halfI; rw [if_neg c1, Int.toNat_natCast]
  have hand := and_half N h3 h2
  have hp := halfN_pos N
  have hl := halfN_lt h2
  have hle := halfN_le h2
  have hmost : ∀ I, deepN N I ≤ deepN N 0 := fun I => deepN_most h2
  have h30 : ∀ I, deepN N I ≤ 30 := fun I => deepN_30 h3
  have hleft : ∀ I, I < halfN N → deepN N I = 1 + deepN (halfN N) I := fun I h => deepN_left h2 h
  have hright : ∀ I, ¬ I < halfN N → deepN N I = 1 + deepN (N - halfN N) (I - halfN N) := fun I h => deepN_right h2 h
  rw [h0] at CH
  obtain ⟨h, hh⟩ : ∃ h, halfN N = h := ⟨_, rfl⟩
  simp only [hh] at CH hand hp hl hle hleft hright
  clear hh h0 c1
  have d2 : decide ((N : Int) < 2) = false := decide_eq_false (by omega)
  have d3 : decide (1073741824 < (N : Int)) = false := decide_eq_false (by omega)
  have d4 : decide ((h : Int) < 1) = false := decide_eq_false (by omega)
  have d5 : decide ((N : Int) ≤ (h : Int)) = false := decide_eq_false (by omega)
  have e1 : IntKind.i64.wrap ((N : Int) - (h : Int)) = ((N - h : Nat) : Int) := by rw [show (N : Int) - (h : Int) = ((N - h : Nat) : Int) by omega]; exact IntWalk.i64_in _ (by omega)
  have e2 : IntKind.i64.wrap ((h : Int) - 1) = (h : Int) - 1 := IntWalk.i64_in _ (by omega)
  have d6 : decide ((h : Int) < ((N - h : Nat) : Int)) = false := decide_eq_false (by omega)
  have d5n : decide (N ≤ h) = false := decide_eq_false (by omega)
  have d6n : decide (h < N - h) = false := decide_eq_false (by omega)
  have d6' : decide ((h : Int) < (N : Int) - (h : Int)) = false := decide_eq_false (by omega)
  have hin : ∀ (A I : Nat), A ≤ 1073741824 → I < A → deepI (A : Int) (I : Int) = ((deepN A I : Nat) : Int) := fun A I h1 h2 => by
    unfold deepI insB
    rw [decide_eq_true (by omega), decide_eq_true (by omega), decide_eq_true (by omega), Int.toNat_natCast, Int.toNat_natCast]; rfl
  by_cases c2 : i < 0 ∨ (N : Int) ≤ i
  · have d0 : deepI (N : Int) i = 0 := by
      unfold deepI insB
      by_cases c : i < 0
      · rw [decide_eq_false (show ¬ 0 ≤ i by omega)]; simp
      · rw [decide_eq_false (show ¬ i < (N : Int) by omega)]; simp
    rw [d0] at CD
    have d7 : decide (i < 0) = true ∨ (decide (i < 0) = false ∧ decide ((N : Int) ≤ i) = true) := by
      by_cases c : i < 0
      · exact .inl (decide_eq_true c)
      · exact .inr ⟨decide_eq_false c, decide_eq_true (by omega)⟩
    clear d0 hin hleft hright hmost h30
    rcases d7 with d7 | ⟨d7, d8⟩
    · go_enter Tryd.func10, Tryd.ntmps10
      go_wp2_with (first | (go_at_call 41; refine (first6_any _ hW).mono ?_; rintro e w0 ⟨rfl, hb⟩; have hW := hW.below hb; have hbel := hbel.trans (hb.mono hbel.size); clear hb) | (go_at_call 42; with_reducible refine (CH _).mono ?_; rintro e wh ⟨rfl, hb⟩; have hbel := hbel.trans (hb.mono hbel.size); clear hb) | (go_at_call 43; first | (with_reducible refine (CD _).mono ?_; rintro e wd ⟨rfl, hb⟩; have hbel := hbel.trans (hb.mono hbel.size); clear hb)))
      go_ret
      exact ⟨rfl, hbel⟩
    · go_enter Tryd.func10, Tryd.ntmps10
      go_wp2_with (first | (go_at_call 41; refine (first6_any _ hW).mono ?_; rintro e w0 ⟨rfl, hb⟩; have hW := hW.below hb; have hbel := hbel.trans (hb.mono hbel.size); clear hb) | (go_at_call 42; with_reducible refine (CH _).mono ?_; rintro e wh ⟨rfl, hb⟩; have hbel := hbel.trans (hb.mono hbel.size); clear hb) | (go_at_call 43; first | (with_reducible refine (CD _).mono ?_; rintro e wd ⟨rfl, hb⟩; have hbel := hbel.trans (hb.mono hbel.size); clear hb)))
      go_ret
      exact ⟨rfl, hbel⟩
  obtain ⟨I, rfl⟩ : ∃ m : Nat, i = m := ⟨i.toNat, by omega⟩
  have hI : I < N := by omega
  have d7 : decide ((I : Int) < 0) = false := decide_eq_false (by omega)
  have d8 : decide ((N : Int) ≤ (I : Int)) = false := decide_eq_false (by omega)
  rw [hin N I h3 hI] at CD
  have C0 := fun W => deep_any (N : Int) 0 W
  have hin0 : deepI (N : Int) 0 = ((deepN N 0 : Nat) : Int) := hin N 0 h3 (by omega)
  rw [hin0] at C0
  clear hin0
  have d8n : decide (N ≤ I) = false := decide_eq_false (by omega)
  have hm := hmost I
  have hT := h30 I
  by_cases c3 : I < h
  · have d9 : decide ((I : Int) < (h : Int)) = true := decide_eq_true (by omega)
    have d9n : decide (I < h) = true := decide_eq_true (by omega)
    have CL := fun W => deep_any (h : Int) (I : Int) W
    rw [hin h I (by omega) c3] at CL
    have hx := hleft I c3
    clear hin hleft hright hmost h30 c2
    obtain ⟨D, hD⟩ : ∃ D, deepN N I = D := ⟨_, rfl⟩
    obtain ⟨D0, hD0⟩ : ∃ D, deepN N 0 = D := ⟨_, rfl⟩
    obtain ⟨D1, hD1⟩ : ∃ D, deepN h I = D := ⟨_, rfl⟩
    rw [hD] at CD hm hT hx
    rw [hD0] at C0 hm
    rw [hD1] at CL hx
    clear hD hD0 hD1
    have f1 : IntKind.i64.wrap (1 + (D1 : Int)) = (D : Int) := by rw [show 1 + (D1 : Int) = (D : Int) by omega]; exact IntWalk.i64_in _ (by omega)
    have f2 : decide ((D : Int) ≤ (D0 : Int)) = true := decide_eq_true (by omega)
    have f3 : decide ((D : Int) ≤ 30) = true := decide_eq_true (by omega)
    have f2n : decide (D ≤ D0) = true := decide_eq_true (by omega)
    have f3n : decide (D ≤ 30) = true := decide_eq_true (by omega)
    clear hx hm hT
    go_enter Tryd.func10, Tryd.ntmps10
    go_wp2_with (first | (go_at_call 41; refine (first6_any _ hW).mono ?_; rintro e w0 ⟨rfl, hb⟩; have hW := hW.below hb; have hbel := hbel.trans (hb.mono hbel.size); clear hb) | (go_at_call 42; with_reducible refine (CH _).mono ?_; rintro e wh ⟨rfl, hb⟩; have hbel := hbel.trans (hb.mono hbel.size); clear hb) | (go_at_call 43; first | (with_reducible refine (CD _).mono ?_; rintro e wd ⟨rfl, hb⟩; have hbel := hbel.trans (hb.mono hbel.size); clear hb) | (with_reducible refine (CL _).mono ?_; rintro e wd ⟨rfl, hb⟩; have hbel := hbel.trans (hb.mono hbel.size); clear hb) | (with_reducible refine (C0 _).mono ?_; rintro e wd ⟨rfl, hb⟩; have hbel := hbel.trans (hb.mono hbel.size); clear hb)))
    go_ret
    exact ⟨rfl, hbel⟩
  · have d9 : decide ((I : Int) < (h : Int)) = false := decide_eq_false (by omega)
    have d9n : decide (I < h) = false := decide_eq_false (by omega)
    have e3 : IntKind.i64.wrap ((I : Int) - (h : Int)) = ((I - h : Nat) : Int) := by rw [show (I : Int) - (h : Int) = ((I - h : Nat) : Int) by omega]; exact IntWalk.i64_in _ (by omega)
    have CL := fun W => deep_any ((N - h : Nat) : Int) ((I - h : Nat) : Int) W
    rw [hin (N - h) (I - h) (by omega) (by omega)] at CL
    have hx := hright I c3
    clear hin hleft hright hmost h30 c2
    obtain ⟨D, hD⟩ : ∃ D, deepN N I = D := ⟨_, rfl⟩
    obtain ⟨D0, hD0⟩ : ∃ D, deepN N 0 = D := ⟨_, rfl⟩
    obtain ⟨D1, hD1⟩ : ∃ D, deepN (N - h) (I - h) = D := ⟨_, rfl⟩
    rw [hD] at CD hm hT hx
    rw [hD0] at C0 hm
    rw [hD1] at CL hx
    clear hD hD0 hD1
    obtain ⟨N2, hN2⟩ : ∃ x, N - h = x := ⟨_, rfl⟩
    obtain ⟨I2, hI2⟩ : ∃ x, I - h = x := ⟨_, rfl⟩
    rw [hN2] at CL e1 d6 d6n
    rw [hI2] at CL e3
    have f1 : IntKind.i64.wrap (1 + (D1 : Int)) = (D : Int) := by rw [show 1 + (D1 : Int) = (D : Int) by omega]; exact IntWalk.i64_in _ (by omega)
    have f2 : decide ((D : Int) ≤ (D0 : Int)) = true := decide_eq_true (by omega)
    have f3 : decide ((D : Int) ≤ 30) = true := decide_eq_true (by omega)
    have f2n : decide (D ≤ D0) = true := decide_eq_true (by omega)
    have f3n : decide (D ≤ 30) = true := decide_eq_true (by omega)
    clear hx hm hT hN2 hI2
    go_enter Tryd.func10, Tryd.ntmps10
    go_wp2_with (first | (go_at_call 41; refine (first6_any _ hW).mono ?_; rintro e w0 ⟨rfl, hb⟩; have hW := hW.below hb; have hbel := hbel.trans (hb.mono hbel.size); clear hb) | (go_at_call 42; with_reducible refine (CH _).mono ?_; rintro e wh ⟨rfl, hb⟩; have hbel := hbel.trans (hb.mono hbel.size); clear hb) | (go_at_call 43; first | (with_reducible refine (CD _).mono ?_; rintro e wd ⟨rfl, hb⟩; have hbel := hbel.trans (hb.mono hbel.size); clear hb) | (with_reducible refine (CL _).mono ?_; rintro e wd ⟨rfl, hb⟩; have hbel := hbel.trans (hb.mono hbel.size); clear hb) | (with_reducible refine (C0 _).mono ?_; rintro e wd ⟨rfl, hb⟩; have hbel := hbel.trans (hb.mono hbel.size); clear hb)))
    go_ret
    exact ⟨rfl, hbel⟩
end Go.Proofs.YtfblbholkhdldaaDoor
