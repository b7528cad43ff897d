/- life.outgoing, Entry.flag. -/
import Derived.Test.YtbckncopdkmoeaaLf1
import Derived.WalkKit
import Derived.ProofKit
import Derived.Handy
import Derived.Below
import Derived.Lib.Hide
import Derived.IntWalk
import Derived.Outline
import Derived.WalkLawsBesides
import Derived.WalkSpells
namespace Go.Proofs.Ytbckncopdkmoeaa
open Go.RowKit
attribute [local go_sem] strV
set_option linter.unusedVariables false
def outB (k : Int) : Bool := decide (k = 1) || decide (k = 4) || decide (k = 5)
def flagO (k : Int) : Nat := if k = 1 then 9 else if k = 2 then 10 else if k = 3 then 11 else if k = 4 then 12 else 13
set_option maxRecDepth 100000 in
theorem outgoing_any (k : Int) (w : World) : Calls Try.prog 60 #[.int .i64 k] w fun e w' => e = .returned (.bool (outB k)) ∧ w' = w := by
  obtain ⟨r, hr⟩ : ∃ r, outB k = r := ⟨_, rfl⟩
  rw [hr]
  have HR := Lib.hid (show (decide (k = 1) || decide (k = 4) || decide (k = 5)) = r from hr)
  clear hr
  by_cases h1 : k = 1
  · obtain rfl : r = true := by rw [← HR.out]; simp [h1]
    have e1 : (k == 1) = true := by rw [beq_iff_eq]; exact h1
    go_enter Try.func60, Try.ntmps60
    go_wp2
    go_ret
    exact ⟨by first | rfl | simp, rfl⟩
  by_cases h4 : k = 4
  · obtain rfl : r = true := by rw [← HR.out]; simp [h4]
    have e1 : (k == 1) = false := by rw [beq_eq_false_iff_ne]; omega
    have e4 : (k == 4) = true := by rw [beq_iff_eq]; exact h4
    go_enter Try.func60, Try.ntmps60
    go_wp2
    go_ret
    exact ⟨by first | rfl | simp, rfl⟩
  by_cases h5 : k = 5
  · obtain rfl : r = true := by rw [← HR.out]; simp [h5]
    have e1 : (k == 1) = false := by rw [beq_eq_false_iff_ne]; omega
    have e4 : (k == 4) = false := by rw [beq_eq_false_iff_ne]; omega
    have e5 : (k == 5) = true := by rw [beq_iff_eq]; exact h5
    go_enter Try.func60, Try.ntmps60
    go_wp2
    go_ret
    exact ⟨by first | rfl | simp, rfl⟩
  obtain rfl : r = false := by rw [← HR.out]; simp [h1, h4, h5]
  have e1 : (k == 1) = false := by rw [beq_eq_false_iff_ne]; omega
  have e4 : (k == 4) = false := by rw [beq_eq_false_iff_ne]; omega
  have e5 : (k == 5) = false := by rw [beq_eq_false_iff_ne]; omega
  go_enter Try.func60, Try.ntmps60
  go_wp2
  go_ret
  exact ⟨by first | rfl | simp, rfl⟩
set_option maxRecDepth 100000 in
theorem flag_any (g : Nat) (k : Int) (w : World) : Calls Try.prog 94 #[.pointer (some ⟨g, 0, none⟩), .int .i64 k] w fun e w' => e = .returned (.pointer (some ⟨g, flagO k, none⟩)) ∧ w' = w := by
  obtain ⟨r, hr⟩ : ∃ r, flagO k = r := ⟨_, rfl⟩
  rw [hr]
  have HR := Lib.hid hr
  clear hr
  by_cases h1 : k = 1
  · obtain rfl : r = 9 := by rw [← HR.out]; simp [flagO, h1]
    have e1 : (k == 1) = true := by rw [beq_iff_eq]; exact h1
    go_enter Try.func94, Try.ntmps94
    go_wp2
    go_ret
    exact ⟨by first | rfl | simp, rfl⟩
  by_cases h2 : k = 2
  · obtain rfl : r = 10 := by rw [← HR.out]; simp [flagO, h2]
    have e1 : (k == 1) = false := by rw [beq_eq_false_iff_ne]; omega
    have e2 : (k == 2) = true := by rw [beq_iff_eq]; exact h2
    go_enter Try.func94, Try.ntmps94
    go_wp2
    go_ret
    exact ⟨by first | rfl | simp, rfl⟩
  by_cases h3 : k = 3
  · obtain rfl : r = 11 := by rw [← HR.out]; simp [flagO, h3]
    have e1 : (k == 1) = false := by rw [beq_eq_false_iff_ne]; omega
    have e2 : (k == 2) = false := by rw [beq_eq_false_iff_ne]; omega
    have e3 : (k == 3) = true := by rw [beq_iff_eq]; exact h3
    go_enter Try.func94, Try.ntmps94
    go_wp2
    go_ret
    exact ⟨by first | rfl | simp, rfl⟩
  by_cases h4 : k = 4
  · obtain rfl : r = 12 := by rw [← HR.out]; simp [flagO, h4]
    have e1 : (k == 1) = false := by rw [beq_eq_false_iff_ne]; omega
    have e2 : (k == 2) = false := by rw [beq_eq_false_iff_ne]; omega
    have e3 : (k == 3) = false := by rw [beq_eq_false_iff_ne]; omega
    have e4 : (k == 4) = true := by rw [beq_iff_eq]; exact h4
    go_enter Try.func94, Try.ntmps94
    go_wp2
    go_ret
    exact ⟨by first | rfl | simp, rfl⟩
  obtain rfl : r = 13 := by rw [← HR.out]; simp [flagO, h1, h2, h3, h4]
  have e1 : (k == 1) = false := by rw [beq_eq_false_iff_ne]; omega
  have e2 : (k == 2) = false := by rw [beq_eq_false_iff_ne]; omega
  have e3 : (k == 3) = false := by rw [beq_eq_false_iff_ne]; omega
  have e4 : (k == 4) = false := by rw [beq_eq_false_iff_ne]; omega
  go_enter Try.func94, Try.ntmps94
  go_wp2
  go_ret
  exact ⟨by first | rfl | simp, rfl⟩
end Go.Proofs.Ytbckncopdkmoeaa
