/- Patterns: which may be, walked. -/
import Derived.Test.YtohggmbnehgdiaaDoorRows
import Derived.Test.YtohggmbnehgdiaaDoorStr
import Derived.WalkKit
import Derived.ProofKit
import Derived.Handy
import Derived.Below
import Derived.Lib.Hide
import Derived.IntWalk
import Derived.Outline
import Derived.WalkLawsBesides
import Derived.WalkSpells
namespace Go.Proofs.YtohggmbnehgdiaaDoor
open Go.RowKit
attribute [local go_sem] strV

def allowB (n : Nat) : Bool := (decide (97 ≤ n) && decide (n ≤ 122)) || (decide (48 ≤ n) && decide (n ≤ 57)) || n == 45 || n == 47 || n == 42 || n == 63
def allL (l : List UInt8) : Bool := l.all fun b => allowB b.toNat
def mayP (l : List UInt8) : Bool := decide (1 ≤ l.length) && decide (l.length ≤ 40) && allL l
theorem allow_cases (n : Nat) : ((97 ≤ n ∧ n ≤ 122) ∨ (48 ≤ n ∧ n ≤ 57) ∨ n = 45 ∨ n = 47 ∨ n = 42 ∨ n = 63) ∧ allowB n = true ∨
    (n < 48 ∨ (58 ≤ n ∧ n < 97) ∨ 123 ≤ n) ∧ n ≠ 45 ∧ n ≠ 47 ∧ n ≠ 42 ∧ n ≠ 63 ∧ allowB n = false := by
  unfold allowB
  by_cases h : (97 ≤ n ∧ n ≤ 122) ∨ (48 ≤ n ∧ n ≤ 57) ∨ n = 45 ∨ n = 47 ∨ n = 42 ∨ n = 63
  · left; refine ⟨h, ?_⟩
    rcases h with h | h | h | h | h | h <;> simp [h]
  · right
    refine ⟨by omega, by omega, by omega, by omega, by omega, ?_⟩
    simp only [Bool.or_eq_false_iff, Bool.and_eq_false_iff, decide_eq_false_iff_not, beq_eq_false_iff_ne]
    omega
theorem ne_int {n m : Nat} (h : n ≠ m) : ((n : Int) == (m : Int)) = false := by
  rw [beq_eq_false_iff_ne]; omega
theorem allL_take {l : List UInt8} {k : Nat} {b : UInt8} (h : l[k]? = some b) : allL (l.take (k + 1)) = (allL (l.take k) && allowB b.toNat) := by
  have hk : k < l.length := (List.getElem?_eq_some_iff.1 h).1
  have hb : l[k] = b := (List.getElem?_eq_some_iff.1 h).2
  unfold allL
  rw [List.take_succ_eq_append_getElem hk, List.all_append, hb]
  simp
theorem allL_stop {l : List UInt8} {k : Nat} {b : UInt8} (h : l[k]? = some b) (hb : allowB b.toNat = false) : allL l = false := by
  cases e : allL l with
  | false => rfl
  | true =>
    have hk : k < l.length := (List.getElem?_eq_some_iff.1 h).1
    have hbk : l[k] = b := (List.getElem?_eq_some_iff.1 h).2
    have := List.all_eq_true.1 e l[k] (List.getElem_mem hk)
    rw [hbk, hb] at this
    cases this

set_option maxRecDepth 100000 in
set_option maxHeartbeats 400000 in
theorem allowed_n (n : Nat) (hn : n < 256) (w : World) :
    Calls Tryd.prog 14 #[.int .u8 n] w fun e w' => e = .returned (.bool (allowB n)) ∧ w' = w := by
  rcases allow_cases n with ⟨h, hr⟩ | ⟨h, h1, h2, h3, h4, hr⟩
  · have HR := Lib.hid hr; clear hr
    rcases h with ⟨ha, hb⟩ | ⟨ha, hb⟩ | rfl | rfl | rfl | rfl
    all_goals
      go_enter Tryd.func14, Tryd.ntmps14
      go_wp2
      go_ret
      exact ⟨by rw [HR.out]; first | done | rfl, by first | rfl | trivial⟩
  · have HR := Lib.hid hr; clear hr
    have e1 : ((n : Int) == 45) = false := ne_int h1
    have e2 : ((n : Int) == 47) = false := ne_int h2
    have e3 : ((n : Int) == 42) = false := ne_int h3
    have e4 : ((n : Int) == 63) = false := ne_int h4
    rcases h with ha | ⟨ha, hb⟩ | ha
    · have d1 : decide (97 ≤ (n : Int)) = false := decide_eq_false (by omega)
      have d2 : decide (48 ≤ (n : Int)) = false := decide_eq_false (by omega)
      go_enter Tryd.func14, Tryd.ntmps14
      go_wp2
      go_ret
      exact ⟨by rw [HR.out]; first | done | rfl, by first | rfl | trivial⟩
    · have d1 : decide (97 ≤ (n : Int)) = false := decide_eq_false (by omega)
      have d2 : decide (48 ≤ (n : Int)) = true := decide_eq_true (by omega)
      have d3 : decide ((n : Int) ≤ 57) = false := decide_eq_false (by omega)
      go_enter Tryd.func14, Tryd.ntmps14
      go_wp2
      go_ret
      exact ⟨by rw [HR.out]; first | done | rfl, by first | rfl | trivial⟩
    · have d1 : decide (97 ≤ (n : Int)) = true := decide_eq_true (by omega)
      have d2 : decide ((n : Int) ≤ 122) = false := decide_eq_false (by omega)
      have d3 : decide ((n : Int) ≤ 57) = false := decide_eq_false (by omega)
      have d4 : decide (48 ≤ (n : Int)) = true := decide_eq_true (by omega)
      go_enter Tryd.func14, Tryd.ntmps14
      go_wp2
      go_ret
      exact ⟨by rw [HR.out]; first | done | rfl, by first | rfl | trivial⟩

set_option maxRecDepth 100000 in
set_option maxHeartbeats 1600000 in
theorem may_any (s : ByteArray) (w : World) (hs : s.size ≤ maxLen) :
    Calls Tryd.prog 8 #[.string s] w fun e w' => e = .returned (.bool (mayP s.data.toList)) ∧ w' = w := by
  unfold maxLen at hs
  by_cases h0 : s.size = 0
  · have he := str_nil h0
    subst he
    go_enter Tryd.func8, Tryd.ntmps8
    go_wp2
    go_ret
    exact ⟨rfl, rfl⟩
  · have hpos : 0 < s.size := by omega
    have hne := str_ne'' hpos
    have hne2 := str_ne' hpos
    by_cases h40 : 40 < s.size
    · have HR : Hid (mayP s.data.toList = false) := Lib.hid (by unfold mayP; rw [str_len, decide_eq_false (show ¬ s.size ≤ 40 by omega)]; simp)
      go_enter Tryd.func8, Tryd.ntmps8
      go_wp2
      go_ret
      exact ⟨by rw [HR.out]; first | done | rfl, by first | rfl | trivial⟩
    · have HR : Hid (mayP s.data.toList = allL s.data.toList) := Lib.hid (by unfold mayP; rw [str_len, decide_eq_true (show s.size ≤ 40 by omega), decide_eq_true (show 1 ≤ s.size by omega)]; rfl)
      go_enter Tryd.func8, Tryd.ntmps8
      go_wp2
      go_loopw [13, 3] (fun i v wr => ∃ k : Nat, k ≤ s.size ∧ wr = w ∧ Hid (allL (s.data.toList.take k) = true) ∧ i = .int .i64 k) (fun i _ _ => s.size - (intOf i).toNat)
      case atStart => exact ⟨0, by omega, rfl, Lib.hid rfl, rfl⟩
      case round =>
        obtain ⟨k, hk, rfl, HA, rfl⟩ := hrel
        by_cases hlt : k < s.size
        · obtain ⟨b, hb⟩ : ∃ b, s[k] = b := ⟨_, rfl⟩
          have hg := str_get hlt
          rw [hb] at hg
          have HG := Lib.hid hg; clear hg
          cases hal : allowB b.toNat
          · have HS : Hid (allL s.data.toList = false) := Lib.hid (allL_stop HG.out hal)
            have HAL := Lib.hid hal; clear hal
            go_wp2_with (go_at_call 14; refine (allowed_n _ (UInt8.toNat_lt b) _).mono ?_; rintro e w1 ⟨rfl, rfl⟩; rw [HAL.out])
            go_ret
            exact ⟨by rw [HR.out, HS.out]; first | done | rfl, by first | rfl | trivial⟩
          · have HS : Hid (allL (s.data.toList.take (k + 1)) = true) := Lib.hid (by rw [allL_take HG.out, HA.out, hal]; rfl)
            have HAL := Lib.hid hal; clear hal
            go_wp2_with (go_at_call 14; refine (allowed_n _ (UInt8.toNat_lt b) _).mono ?_; rintro e w1 ⟨rfl, rfl⟩; rw [HAL.out])
            go_roundw
            case rel => exact ⟨k + 1, by omega, by first | rfl | trivial, HS, by go_num⟩
            case measure => simp [intOf]; omega
        · have HS : Hid (allL s.data.toList = true) := Lib.hid (by have := HA.out; rwa [List.take_of_length_le (by rw [str_len]; omega)] at this)
          go_wp2
          go_ret
          exact ⟨by rw [HR.out, HS.out]; first | done | rfl, by first | rfl | trivial⟩
end Go.Proofs.YtohggmbnehgdiaaDoor
