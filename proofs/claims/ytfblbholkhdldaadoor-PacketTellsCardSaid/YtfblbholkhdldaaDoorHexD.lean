/- Hexadecimal digits: one digit, read and written. -/
import Derived.Test.YtfblbholkhdldaaDoorHexM
import Derived.Test.YtfblbholkhdldaaDoorQTail
import Derived.BigQuiet
import Derived.WalkKit
import Derived.ProofKit
import Derived.Handy
import Derived.Below
import Derived.Lib.Hide
import Derived.IntWalk
import Derived.Outline
import Derived.WalkLawsBesides
import Derived.WalkSpells
namespace Go.Proofs.YtfblbholkhdldaaDoor
open Go.RowKit
attribute [local go_sem] strV
set_option linter.unusedVariables false
set_option maxRecDepth 100000 in
theorem sdigit_any (c : UInt8) (w : World) :
    Calls Tryd.prog 61 #[.int .u8 (c.toNat : Int)] w fun e w' => e = .returned (.tuple #[.int .u8 ((digv c : Nat) : Int), .bool (digk c)]) ∧ Below w.heap.size w w' := by
  obtain ⟨n, hn⟩ : ∃ n, c.toNat = n := ⟨_, rfl⟩
  have hlt : n < 256 := by rw [← hn]; exact c.toNat_lt
  have HV : Hid (digv c = if 48 ≤ n ∧ n ≤ 57 then n - 48 else if 97 ≤ n ∧ n ≤ 102 then n - 87 else 0) := Lib.hid (by unfold digv; rw [hn])
  have HK : Hid (digk c = ((decide (48 ≤ n) && decide (n ≤ 57)) || (decide (97 ≤ n) && decide (n ≤ 102)))) := Lib.hid (by unfold digk; rw [hn])
  rw [hn]
  clear hn
  by_cases h1 : 48 ≤ n
  · have d1 : decide ((48 : Int) ≤ (n : Int)) = true := decide_eq_true (by omega)
    by_cases h2 : n ≤ 57
    · have d2 : decide ((n : Int) ≤ 57) = true := decide_eq_true (by omega)
      have e1 : IntKind.u8.wrap ((n : Int) - 48) = (n : Int) - 48 := by rw [IntKind.wrap_u8]; omega
      have e2 : ((n : Int) - 48) % 256 = (n : Int) - 48 := by omega
      go_enter Tryd.func61, Tryd.ntmps61
      go_wp2
      go_ret2
      exact ⟨by rw [HV.out, HK.out, if_pos ⟨h1, h2⟩, decide_eq_true h1, decide_eq_true h2]; simp; omega, Below.refl _ _⟩
    · have d2 : decide ((n : Int) ≤ 57) = false := decide_eq_false (by omega)
      by_cases h3 : 97 ≤ n
      · have d3 : decide ((97 : Int) ≤ (n : Int)) = true := decide_eq_true (by omega)
        by_cases h4 : n ≤ 102
        · have d4 : decide ((n : Int) ≤ 102) = true := decide_eq_true (by omega)
          have e1 : IntKind.u8.wrap ((n : Int) - 97) = (n : Int) - 97 := by rw [IntKind.wrap_u8]; omega
          have e3 : IntKind.u8.wrap ((n : Int) - 97 + 10) = (n : Int) - 97 + 10 := by rw [IntKind.wrap_u8]; omega
          have e2 : ((n : Int) - 97) % 256 = (n : Int) - 97 := by omega
          go_enter Tryd.func61, Tryd.ntmps61
          go_wp2
          go_ret2
          exact ⟨by rw [HV.out, HK.out, if_neg (by omega), if_pos ⟨h3, h4⟩, decide_eq_true h3, decide_eq_true h4]; simp; omega, Below.refl _ _⟩
        · have d4 : decide ((n : Int) ≤ 102) = false := decide_eq_false (by omega)
          go_enter Tryd.func61, Tryd.ntmps61
          go_wp2
          go_ret2
          exact ⟨by rw [HV.out, HK.out, if_neg (by omega), if_neg (by omega), decide_eq_false h4, decide_eq_false h2]; simp, Below.refl _ _⟩
      · have d3 : decide ((97 : Int) ≤ (n : Int)) = false := decide_eq_false (by omega)
        go_enter Tryd.func61, Tryd.ntmps61
        go_wp2
        go_ret2
        exact ⟨by rw [HV.out, HK.out, if_neg (by omega), if_neg (by omega), decide_eq_false h3, decide_eq_false h2]; simp, Below.refl _ _⟩
  · have d1 : decide ((48 : Int) ≤ (n : Int)) = false := decide_eq_false (by omega)
    have d3 : decide ((97 : Int) ≤ (n : Int)) = false := decide_eq_false (by omega)
    go_enter Tryd.func61, Tryd.ntmps61
    go_wp2
    go_ret2
    exact ⟨by rw [HV.out, HK.out, if_neg (by omega), if_neg (by omega), decide_eq_false h1, decide_eq_false (show ¬ 97 ≤ n by omega)]; simp, Below.refl _ _⟩
theorem hexd_nat : ∀ n, n < 16 → (hexd n).toNat = if n < 10 then 48 + n else 87 + n := by decide +kernel
set_option maxRecDepth 100000 in
theorem rdigit_any (n : Nat) (h : n < 16) (w : World) :
    Calls Tryd.prog 60 #[.int .i64 (n : Int)] w fun e w' => e = .returned (.int .u8 ((hexd n).toNat : Int)) ∧ Below w.heap.size w w' := by
  have HD := Lib.hid (hexd_nat n h)
  by_cases h1 : n < 10
  · have d1 : decide ((n : Int) < 10) = true := decide_eq_true (by omega)
    go_enter Tryd.func60, Tryd.ntmps60
    go_wp2
    go_ret
    exact ⟨by rw [HD.out, if_pos h1]; simp, Below.refl _ _⟩
  · have d1 : decide ((n : Int) < 10) = false := decide_eq_false (by omega)
    go_enter Tryd.func60, Tryd.ntmps60
    go_wp2
    go_ret
    exact ⟨by rw [HD.out, if_neg h1]; simp; omega, Below.refl _ _⟩
end Go.Proofs.YtfblbholkhdldaaDoor
