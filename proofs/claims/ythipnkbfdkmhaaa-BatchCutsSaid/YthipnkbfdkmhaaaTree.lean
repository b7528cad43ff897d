/- Halves, and how deep a leaf lies. -/
import Derived.Test.YthipnkbfdkmhaaaSA
import Derived.LoopTactic
import Derived.Deep.Cut
import Derived.BigFrame
import Derived.Test.YthipnkbfdkmhaaaShelf
import Derived.Lib.BitFns
import Derived.WalkKit
import Derived.ProofKit
import Derived.Handy
import Derived.Below
import Derived.Lib.Hide
import Derived.IntWalk
import Derived.Outline
import Derived.WalkLawsBesides
import Derived.WalkSpells
namespace Go.Proofs.Ythipnkbfdkmhaaa
open Go.RowKit
set_option linter.unusedVariables false
/-- The greatest power of two below n (of n from 2 on). -/
def halfN (n : Nat) : Nat := 2 ^ Nat.log2 (n - 1)
theorem halfN_lt {n : Nat} (h : 2 ≤ n) : halfN n < n := by
  have := Nat.log2_self_le (n := n - 1) (by omega)
  unfold halfN; omega
theorem halfN_pos (n : Nat) : 0 < halfN n := Nat.two_pow_pos _
theorem halfN_le {n : Nat} (h : 2 ≤ n) : n ≤ 2 * halfN n := by
  have := Nat.lt_log2_self (n := n - 1)
  rw [Nat.pow_succ] at this
  unfold halfN; omega
/-- How far below the top leaf i of n leaves lies. -/
def deepN (n i : Nat) : Nat :=
  if h : 2 ≤ n then 1 + (if i < halfN n then deepN (halfN n) i else deepN (n - halfN n) (i - halfN n)) else 0
termination_by n
decreasing_by
  · exact halfN_lt h
  · have := halfN_pos n; omega
theorem deepN_small {n : Nat} (h : n < 2) (i : Nat) : deepN n i = 0 := by rw [deepN, dif_neg (by omega)]
theorem deepN_left {n i : Nat} (h : 2 ≤ n) (hi : i < halfN n) : deepN n i = 1 + deepN (halfN n) i := by
  conv => lhs; rw [deepN]
  rw [dif_pos h, if_pos hi]
theorem deepN_right {n i : Nat} (h : 2 ≤ n) (hi : ¬ i < halfN n) : deepN n i = 1 + deepN (n - halfN n) (i - halfN n) := by
  conv => lhs; rw [deepN]
  rw [dif_pos h, if_neg hi]
theorem deepN_le : ∀ (n c i : Nat), n ≤ 2 ^ c → deepN n i ≤ c := by
  intro n
  induction n using Nat.strongRecOn with
  | _ n ih =>
    intro c i hn
    by_cases h2 : 2 ≤ n
    · obtain ⟨c, rfl⟩ : ∃ d, c = d + 1 := ⟨c - 1, by rcases c with _ | c <;> simp at hn ⊢; omega⟩
      have h1 := halfN_lt h2
      have hh : halfN n ≤ 2 ^ c := by
        unfold halfN
        refine Nat.pow_le_pow_right (by decide) ?_
        have : Nat.log2 (n - 1) < c + 1 := (Nat.log2_lt (by omega)).2 (by omega)
        omega
      have hl := halfN_le h2
      have hp := halfN_pos n
      by_cases hi : i < halfN n
      · rw [deepN_left h2 hi]
        have := ih _ h1 c i hh
        omega
      · rw [deepN_right h2 hi]
        have := ih (n - halfN n) (by omega) c (i - halfN n) (by omega)
        omega
    · rw [deepN_small (by omega)]; omega
theorem deepN_30 {n i : Nat} (h : n ≤ 1073741824) : deepN n i ≤ 30 := deepN_le _ _ _ h
theorem bitLen_log : ∀ (x : Nat), x ≠ 0 → x < 2 ^ 64 → Lib.bitLen x = Nat.log2 x + 1 := by
  intro x
  induction x using Nat.strongRecOn with
  | _ x ih =>
    intro h0 h1
    rw [Lib.bitLen_half x h0 h1]
    by_cases h2 : 2 ≤ x
    · rw [ih (x / 2) (by omega) (by omega) (by omega)]
      rw [Nat.log2_def x, if_pos h2]; omega
    · obtain rfl : x = 1 := by omega
      rfl
set_option maxRecDepth 100000 in
set_option maxHeartbeats 3200000 in
theorem half_any (n : Nat) (w : World) (h2 : 2 ≤ n) (h3 : n ≤ 1073741824) :
    Calls Try.prog 132 #[.int .i64 n] w fun e w' => e = .returned (.int .i64 (halfN n : Nat)) ∧ Below w.heap.size w w' := by
  have CB := fun W : World => Try.bits_Len ((n : Int) - 1) W (by omega) (by omega)
  have hb : Lib.bitLen (((n : Int) - 1).toNat) = Nat.log2 (n - 1) + 1 := by
    rw [show ((n : Int) - 1).toNat = n - 1 by omega]
    exact bitLen_log _ (by omega) (by omega)
  rw [hb] at CB
  have hk : Nat.log2 (n - 1) < 31 := (Nat.log2_lt (by omega)).2 (by omega)
  have hH : halfN n = 2 ^ Nat.log2 (n - 1) := rfl
  obtain ⟨k, hkk⟩ : ∃ k, Nat.log2 (n - 1) = k := ⟨_, rfl⟩
  rw [hkk] at CB hk hH
  rw [hH]
  have HP : 2 ^ k ≤ 2 ^ 30 := Nat.pow_le_pow_right (by decide) (by omega)
  have e1 : IntKind.i64.wrap ((n : Int) - 1) = (n : Int) - 1 := IntWalk.i64_in _ (by omega)
  have e3 : IntKind.u64.wrap ((n : Int) - 1) = (n : Int) - 1 := IntWalk.u64_in _ (by omega)
  have e4 : IntKind.i64.wrap (((k + 1 : Nat) : Int) - 1) = (k : Int) := by rw [show ((k + 1 : Nat) : Int) - 1 = (k : Int) by omega]; exact IntWalk.i64_in _ (by omega)
  have e5 : wrap64 ((2 : Int) ^ k) = ((2 ^ k : Nat) : Int) := by
    rw [show ((2 : Int) ^ k) = ((2 ^ k : Nat) : Int) by simp]
    unfold wrap64
    omega
  clear hb hkk hH
  go_enter Try.func132, Try.ntmps132
  go_wp2_with (first | (go_at_call 135; refine (CB _).mono ?_; rintro e w1 ⟨rfl, rfl⟩))
  go_ret
  refine ⟨?_, Below.refl _ _⟩
  first | rfl | (rw [e5]; rfl) | (simp only [e5]; rfl)
def insB (n i : Int) : Bool := decide (n ≤ 1073741824) && decide (0 ≤ i) && decide (i < n)
def deepI (n i : Int) : Int := bif insB n i then (deepN n.toNat i.toNat : Nat) else 0
def halfI (n : Int) : Int := if n < 2 ∨ 1073741824 < n then 0 else (halfN n.toNat : Nat)
set_option maxRecDepth 100000 in
set_option maxHeartbeats 3200000 in
theorem inside_any (n i : Int) (w : World) :
    Calls Try.prog 119 #[.int .i64 n, .int .i64 i] w fun e w' => e = .returned (.bool (insB n i)) ∧ Below w.heap.size w w' := by
  unfold insB
  by_cases h1 : n ≤ 1073741824
  · have d1 : decide (n ≤ 1073741824) = true := decide_eq_true h1
    by_cases h2 : 0 ≤ i
    · have d2 : decide (0 ≤ i) = true := decide_eq_true h2
      obtain ⟨b, hb⟩ : ∃ b, decide (i < n) = b := ⟨_, rfl⟩
      rw [d1, d2, hb]
      go_enter Try.func119, Try.ntmps119
      go_wp2
      go_ret
      exact ⟨rfl, Below.refl _ _⟩
    · have d2 : decide (0 ≤ i) = false := decide_eq_false h2
      rw [d1, d2]
      go_enter Try.func119, Try.ntmps119
      go_wp2
      go_ret
      exact ⟨rfl, Below.refl _ _⟩
  · have d1 : decide (n ≤ 1073741824) = false := decide_eq_false h1
    rw [d1]
    go_enter Try.func119, Try.ntmps119
    go_wp2
    go_ret
    exact ⟨rfl, Below.refl _ _⟩
set_option maxRecDepth 100000 in
set_option maxHeartbeats 3200000 in
theorem below_any (n i : Nat) (w : World) (h2 : 2 ≤ n) (h3 : n ≤ 1073741824) (hi : i < n) :
    Calls Try.prog 120 #[.int .i64 n, .int .i64 i] w fun e w' => e = .returned (if i < halfN n then .tuple #[.int .i64 (halfN n : Nat), .int .i64 i] else .tuple #[.int .i64 ((n - halfN n : Nat) : Int), .int .i64 ((i - halfN n : Nat) : Int)]) ∧ Below w.heap.size w w' := by
  have CH := half_any n w h2 h3
  have hl := halfN_lt h2
  obtain ⟨h, hh⟩ : ∃ h, halfN n = h := ⟨_, rfl⟩
  rw [hh] at CH hl ⊢
  by_cases c : i < h
  · have d : decide ((i : Int) < (h : Int)) = true := decide_eq_true (by omega)
    rw [if_pos c]
    go_enter Try.func120, Try.ntmps120
    go_wp2_with (first | (go_at_call 132; refine CH.mono ?_; rintro e w1 ⟨rfl, hb1⟩))
    go_returns
    exact ⟨rfl, hb1⟩
  · have d : decide ((i : Int) < (h : Int)) = false := decide_eq_false (by omega)
    have e1 : IntKind.i64.wrap ((n : Int) - (h : Int)) = ((n - h : Nat) : Int) := by rw [show (n : Int) - (h : Int) = ((n - h : Nat) : Int) by omega]; exact IntWalk.i64_in _ (by omega)
    have e2 : IntKind.i64.wrap ((i : Int) - (h : Int)) = ((i - h : Nat) : Int) := by rw [show (i : Int) - (h : Int) = ((i - h : Nat) : Int) by omega]; exact IntWalk.i64_in _ (by omega)
    rw [if_neg c]
    go_enter Try.func120, Try.ntmps120
    go_wp2_with (first | (go_at_call 132; refine CH.mono ?_; rintro e w1 ⟨rfl, hb1⟩))
    go_returns
    refine ⟨?_, hb1⟩
    first | rfl | (rw [show ((n - h : Nat) : Int) = (n : Int) - (h : Int) by omega, show ((i - h : Nat) : Int) = (i : Int) - (h : Int) by omega]; done)
set_option maxRecDepth 100000 in
set_option maxHeartbeats 3200000 in
theorem deep_any (n i : Int) (w : World) :
    Calls Try.prog 100 #[.int .i64 n, .int .i64 i] w fun e w' => e = .returned (.int .i64 (deepI n i)) ∧ Below w.heap.size w w' := by
  have CI := inside_any n i w
  unfold deepI
  cases hB : insB n i
  · rw [hB] at CI
    simp only [cond_false]
    go_enter Try.func100, Try.ntmps100
    go_wp2_with (first | (go_at_call 119; refine CI.mono ?_; rintro e w1 ⟨rfl, hb1⟩))
    go_ret
    exact ⟨rfl, hb1⟩
  rw [hB] at CI
  simp only [cond_true]
  unfold insB at hB
  simp only [Bool.and_eq_true, decide_eq_true_eq] at hB
  obtain ⟨n, rfl⟩ : ∃ m : Nat, n = m := ⟨n.toNat, by omega⟩
  obtain ⟨i, rfl⟩ : ∃ m : Nat, i = m := ⟨i.toNat, by omega⟩
  rw [Int.toNat_natCast, Int.toNat_natCast]
  have hN3 : n ≤ 1073741824 := by omega
  have hiN : i < n := by omega
  have hD30 := deepN_30 (i := i) hN3
  obtain ⟨D, hD⟩ : ∃ D, deepN n i = D := ⟨_, rfl⟩
  rw [hD] at hD30 ⊢
  have HD := Lib.hid hD
  clear hB hD
  go_enter Try.func100, Try.ntmps100
  go_upto_region 4 with (first | (go_at_call 119; refine CI.mono ?_; rintro e w1 ⟨rfl, hb1⟩))
  go_loopw [0, 1, 5] (fun a b c wr => ∃ N I d : Nat, Below w.heap.size w wr ∧ I < N ∧ N ≤ 1073741824 ∧ Hid (d + deepN N I = D) ∧ a = .int .i64 N ∧ b = .int .i64 I ∧ c = .int .i64 d) (fun a _ _ _ => (intOf a).toNat)
  case atStart => exact ⟨n, i, 0, hb1, hiN, hN3, Lib.hid (by rw [HD.out]; omega), rfl, rfl, rfl⟩
  case round =>
    obtain ⟨N, I, d, hbel, hIN, hN, HX, rfl, rfl, rfl⟩ := hrel
    by_cases c2 : 2 ≤ N
    · have d1 : decide (1 < (N : Int)) = true := decide_eq_true (by omega)
      have CB := below_any N I wr c2 hN hIN
      have hx := HX.out
      have hl := halfN_lt c2
      have hp := halfN_pos N
      have hle := halfN_le c2
      have hsz := hbel.size
      have e1 : IntKind.i64.wrap ((d : Int) + 1) = ((d + 1 : Nat) : Int) := by rw [show (d : Int) + 1 = ((d + 1 : Nat) : Int) by omega]; exact IntWalk.i64_in _ (by omega)
      by_cases c : I < halfN N
      · rw [deepN_left c2 c] at hx
        rw [if_pos c] at CB
        obtain ⟨h, hh⟩ : ∃ h, halfN N = h := ⟨_, rfl⟩
        rw [hh] at CB hx hl hp hle c
        have HX := Lib.hid hx
        clear hx hh
        go_wp2_with (first | (go_at_call 120; refine CB.mono ?_; rintro e w2 ⟨rfl, hb2⟩))
        go_roundw
        case rel => exact ⟨h, I, d + 1, hbel.trans (hb2.mono hsz), c, by omega, Lib.hid (by have := HX.out; omega), rfl, rfl, by first | rfl | go_num⟩
        case measure => (simp [intOf]) <;> omega
      · rw [deepN_right c2 c] at hx
        rw [if_neg c] at CB
        obtain ⟨h, hh⟩ : ∃ h, halfN N = h := ⟨_, rfl⟩
        rw [hh] at CB hx hl hp hle c
        have HX := Lib.hid hx
        clear hx hh
        obtain ⟨N2, hN2⟩ : ∃ x, N - h = x := ⟨_, rfl⟩
        obtain ⟨I2, hI2⟩ : ∃ x, I - h = x := ⟨_, rfl⟩
        rw [hN2, hI2] at CB HX
        go_wp2_with (first | (go_at_call 120; refine CB.mono ?_; rintro e w2 ⟨rfl, hb2⟩))
        go_roundw
        case rel => exact ⟨N2, I2, d + 1, hbel.trans (hb2.mono hsz), by omega, by omega, Lib.hid (by have := HX.out; omega), rfl, rfl, by first | rfl | go_num⟩
        case measure => (simp [intOf]) <;> omega
    · have d1 : decide (1 < (N : Int)) = false := decide_eq_false (by omega)
      have hx := HX.out
      rw [deepN_small (by omega)] at hx
      obtain rfl : d = D := by omega
      clear hx
      go_wp2
      go_ret
      exact ⟨rfl, hbel⟩
end Go.Proofs.Ythipnkbfdkmhaaa
