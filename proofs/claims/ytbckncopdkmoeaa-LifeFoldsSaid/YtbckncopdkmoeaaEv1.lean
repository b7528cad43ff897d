/- Ends and packets at s13: which may be; packets: Same; ends: Less; the document too. -/
import Derived.Test.YtbckncopdkmoeaaCn2
import Derived.Test.YtbckncopdkmoeaaGen
import Derived.BigRegion
import Derived.RegionTactic
import Derived.BigQuiet
import Derived.Deep.QuietTactic
import Derived.Deep.MidRow
import Derived.Deep.Cut
import Derived.LoopTactic
import Derived.BigFrame
import Derived.WalkKit
import Derived.ProofKit
import Derived.Handy
import Derived.Below
import Derived.Lib.Hide
import Derived.IntWalk
import Derived.Outline
import Derived.WalkLawsBesides
import Derived.WalkSpells
namespace Go.Proofs.Ytbckncopdkmoeaa
open Go.RowKit
attribute [local go_sem] strV
set_option linter.unusedVariables false
set_option linter.unusedSimpArgs false
def letterB (n : Nat) : Bool := decide (97 ≤ n) && decide (n ≤ 122)
def digitB (n : Nat) : Bool := decide (48 ≤ n) && decide (n ≤ 57)
def nbB (n : Nat) : Bool := letterB n || digitB n || n == 45
def nbL (l : List UInt8) : Bool := l.all fun b => nbB b.toNat
def headB (l : List UInt8) : Bool := match l[0]? with | some b => letterB b.toNat | none => false
def nameP (l : List UInt8) : Bool := decide (1 ≤ l.length) && decide (l.length ≤ 12) && headB l && nbL l
theorem ne_int' {n m : Nat} (h : n ≠ m) : ((n : Int) == (m : Int)) = false := by rw [beq_eq_false_iff_ne]; omega
theorem nbL_take {l : List UInt8} {k : Nat} {b : UInt8} (h : l[k]? = some b) : nbL (l.take (k + 1)) = (nbL (l.take k) && nbB b.toNat) := by
  unfold nbL; rw [List.take_add_one, h, List.all_append]; simp
theorem nbL_stop {l : List UInt8} {k : Nat} {b : UInt8} (h : l[k]? = some b) (hb : nbB b.toNat = false) : nbL l = false := by
  unfold nbL; rw [List.all_eq_false]; exact ⟨b, List.mem_of_getElem? h, by rw [hb]; decide⟩
set_option maxRecDepth 100000 in
set_option maxHeartbeats 400000 in
theorem letter_n (n : Nat) (hn : n < 256) (w : World) :
    Calls Try.prog 129 #[.int .u8 n] w fun e w' => e = .returned (.bool (letterB n)) ∧ w' = w := by
  by_cases h1 : 97 ≤ n
  · by_cases h2 : n ≤ 122
    · have HR : Hid (letterB n = true) := Lib.hid (by unfold letterB; rw [decide_eq_true h1, decide_eq_true h2]; rfl)
      have d2 : decide ((n : Int) ≤ 122) = true := decide_eq_true (by omega)
      go_enter Try.func129, Try.ntmps129
      go_wp2
      go_ret
      exact ⟨by rw [HR.out]; first | done | rfl, by first | rfl | trivial⟩
    · have HR : Hid (letterB n = false) := Lib.hid (by unfold letterB; rw [decide_eq_false h2, Bool.and_false])
      have d2 : decide ((n : Int) ≤ 122) = false := decide_eq_false (by omega)
      go_enter Try.func129, Try.ntmps129
      go_wp2
      go_ret
      exact ⟨by rw [HR.out]; first | done | rfl, by first | rfl | trivial⟩
  · have HR : Hid (letterB n = false) := Lib.hid (by unfold letterB; rw [decide_eq_false h1]; rfl)
    have d1 : decide (97 ≤ (n : Int)) = false := decide_eq_false (by omega)
    go_enter Try.func129, Try.ntmps129
    go_wp2
    go_ret
    exact ⟨by rw [HR.out]; first | done | rfl, by first | rfl | trivial⟩
set_option maxRecDepth 100000 in
set_option maxHeartbeats 400000 in
theorem digit_n (n : Nat) (hn : n < 256) (w : World) :
    Calls Try.prog 130 #[.int .u8 n] w fun e w' => e = .returned (.bool (digitB n)) ∧ w' = w := by
  by_cases h1 : 48 ≤ n
  · by_cases h2 : n ≤ 57
    · have HR : Hid (digitB n = true) := Lib.hid (by unfold digitB; rw [decide_eq_true h1, decide_eq_true h2]; rfl)
      have d2 : decide ((n : Int) ≤ 57) = true := decide_eq_true (by omega)
      go_enter Try.func130, Try.ntmps130
      go_wp2
      go_ret
      exact ⟨by rw [HR.out]; first | done | rfl, by first | rfl | trivial⟩
    · have HR : Hid (digitB n = false) := Lib.hid (by unfold digitB; rw [decide_eq_false h2, Bool.and_false])
      have d2 : decide ((n : Int) ≤ 57) = false := decide_eq_false (by omega)
      go_enter Try.func130, Try.ntmps130
      go_wp2
      go_ret
      exact ⟨by rw [HR.out]; first | done | rfl, by first | rfl | trivial⟩
  · have HR : Hid (digitB n = false) := Lib.hid (by unfold digitB; rw [decide_eq_false h1]; rfl)
    have d1 : decide (48 ≤ (n : Int)) = false := decide_eq_false (by omega)
    go_enter Try.func130, Try.ntmps130
    go_wp2
    go_ret
    exact ⟨by rw [HR.out]; first | done | rfl, by first | rfl | trivial⟩
set_option maxRecDepth 100000 in
set_option maxHeartbeats 1600000 in
theorem name_any (s : ByteArray) (w : World) (hs : s.size ≤ maxLen) :
    Calls Try.prog 111 #[.string s] w fun e w' => e = .returned (.bool (nameP s.data.toList)) ∧ w' = w := by
  unfold maxLen at hs
  by_cases h0 : s.size = 0
  · have he := str_nil h0
    subst he
    go_enter Try.func111, Try.ntmps111
    go_wp2
    go_ret
    exact ⟨rfl, rfl⟩
  have hpos : 0 < s.size := by omega
  have hne := str_ne'' hpos
  have hne2 := str_ne' hpos
  by_cases h12 : 12 < s.size
  · have HR : Hid (nameP s.data.toList = false) := Lib.hid (by unfold nameP; rw [str_len, decide_eq_false (show ¬ s.size ≤ 12 by omega)]; simp)
    go_enter Try.func111, Try.ntmps111
    go_wp2
    go_ret
    exact ⟨by rw [HR.out]; first | done | rfl, by first | rfl | trivial⟩
  obtain ⟨b, hb⟩ : ∃ b, s[0] = b := ⟨_, rfl⟩
  have hg := str_get hpos
  rw [hb] at hg
  cases hl : letterB b.toNat
  · have HR : Hid (nameP s.data.toList = false) := Lib.hid (by unfold nameP headB; rw [hg]; simp [hl])
    have HL := Lib.hid hl; clear hl hg
    go_enter Try.func111, Try.ntmps111
    go_wp2_with (go_at_call 129; refine (letter_n _ (UInt8.toNat_lt b) _).mono ?_; rintro e w1 ⟨rfl, hw1⟩; obtain rfl : _ = w1 := hw1.symm; rw [HL.out])
    go_ret
    exact ⟨by rw [HR.out]; first | done | rfl, by first | rfl | trivial⟩
  have HR : Hid (nameP s.data.toList = nbL s.data.toList) := Lib.hid (by
    unfold nameP headB; rw [hg, str_len, decide_eq_true (show s.size ≤ 12 by omega), decide_eq_true (show 1 ≤ s.size by omega)]; simp [hl])
  have HL := Lib.hid hl; clear hl hg
  go_enter Try.func111, Try.ntmps111
  go_wp2_with (go_at_call 129; refine (letter_n _ (UInt8.toNat_lt b) _).mono ?_; rintro e w1 ⟨rfl, hw1⟩; obtain rfl : _ = w1 := hw1.symm; rw [HL.out])
  clear HL
  go_loopw [19, 3] (fun i v wr => ∃ k : Nat, k ≤ s.size ∧ wr = w ∧ Hid (nbL (s.data.toList.take k) = true) ∧ i = .int .i64 k) (fun i _ _ => s.size - (intOf i).toNat)
  case atStart => exact ⟨0, by omega, by first | rfl | trivial, Lib.hid rfl, rfl⟩
  case round =>
    obtain ⟨k, hk, rfl, HA, rfl⟩ := hrel
    by_cases hlt : k < s.size
    · obtain ⟨b, hb⟩ : ∃ b, s[k] = b := ⟨_, rfl⟩
      have hg := str_get hlt
      rw [hb] at hg
      have HG := Lib.hid hg; clear hg
      cases hl : letterB b.toNat
      · cases hd : digitB b.toNat
        · by_cases h45 : b.toNat = 45
          · have HS : Hid (nbL (s.data.toList.take (k + 1)) = true) := Lib.hid (by rw [nbL_take HG.out, HA.out]; unfold nbB; rw [hl, hd, h45]; rfl)
            have e45 : ((b.toNat : Int) == 45) = true := by rw [beq_iff_eq]; omega
            clear h45
            have HL := Lib.hid hl; have HD := Lib.hid hd; clear hl hd
            go_wp2_with (first | (go_at_call 129; refine (letter_n _ (UInt8.toNat_lt b) _).mono ?_; rintro e w1 ⟨rfl, hw1⟩; obtain rfl : _ = w1 := hw1.symm; rw [HL.out]) | (go_at_call 130; refine (digit_n _ (UInt8.toNat_lt b) _).mono ?_; rintro e w1 ⟨rfl, hw1⟩; obtain rfl : _ = w1 := hw1.symm; rw [HD.out]))
            go_roundw
            case rel => exact ⟨k + 1, by omega, by first | rfl | trivial, HS, by go_num⟩
            case measure => (simp [intOf]) <;> omega
          · have HS : Hid (nbL s.data.toList = false) := Lib.hid (nbL_stop HG.out (by unfold nbB; rw [hl, hd]; simp [h45]))
            have e45 : ((b.toNat : Int) == 45) = false := ne_int' h45
            have HL := Lib.hid hl; have HD := Lib.hid hd; clear hl hd
            go_wp2_with (first | (go_at_call 129; refine (letter_n _ (UInt8.toNat_lt b) _).mono ?_; rintro e w1 ⟨rfl, hw1⟩; obtain rfl : _ = w1 := hw1.symm; rw [HL.out]) | (go_at_call 130; refine (digit_n _ (UInt8.toNat_lt b) _).mono ?_; rintro e w1 ⟨rfl, hw1⟩; obtain rfl : _ = w1 := hw1.symm; rw [HD.out]))
            go_ret
            exact ⟨by rw [HR.out, HS.out]; first | done | rfl, by first | rfl | trivial⟩
        · have HS : Hid (nbL (s.data.toList.take (k + 1)) = true) := Lib.hid (by rw [nbL_take HG.out, HA.out]; unfold nbB; rw [hl, hd]; rfl)
          have HL := Lib.hid hl; have HD := Lib.hid hd; clear hl hd
          go_wp2_with (first | (go_at_call 129; refine (letter_n _ (UInt8.toNat_lt b) _).mono ?_; rintro e w1 ⟨rfl, hw1⟩; obtain rfl : _ = w1 := hw1.symm; rw [HL.out]) | (go_at_call 130; refine (digit_n _ (UInt8.toNat_lt b) _).mono ?_; rintro e w1 ⟨rfl, hw1⟩; obtain rfl : _ = w1 := hw1.symm; rw [HD.out]))
          go_roundw
          case rel => exact ⟨k + 1, by omega, by first | rfl | trivial, HS, by go_num⟩
          case measure => (simp [intOf]) <;> omega
      · have HS : Hid (nbL (s.data.toList.take (k + 1)) = true) := Lib.hid (by rw [nbL_take HG.out, HA.out]; unfold nbB; rw [hl]; rfl)
        have HL := Lib.hid hl; clear hl
        go_wp2_with (go_at_call 129; refine (letter_n _ (UInt8.toNat_lt b) _).mono ?_; rintro e w1 ⟨rfl, hw1⟩; obtain rfl : _ = w1 := hw1.symm; rw [HL.out])
        go_roundw
        case rel => exact ⟨k + 1, by omega, by first | rfl | trivial, HS, by go_num⟩
        case measure => (simp [intOf]) <;> omega
    · have HS : Hid (nbL s.data.toList = true) := Lib.hid (by have := HA.out; rwa [List.take_of_length_le (by rw [str_len]; omega)] at this)
      go_wp2
      go_ret
      exact ⟨by rw [HR.out, HS.out]; first | done | rfl, by first | rfl | trivial⟩
theorem nb_cases (n : Nat) : ((97 ≤ n ∧ n ≤ 122) ∨ (48 ≤ n ∧ n ≤ 57) ∨ n = 45) ∧ nbB n = true ∨
    (n < 48 ∨ (58 ≤ n ∧ n < 97) ∨ 123 ≤ n) ∧ n ≠ 45 ∧ nbB n = false := by
  unfold nbB letterB digitB
  by_cases h : (97 ≤ n ∧ n ≤ 122) ∨ (48 ≤ n ∧ n ≤ 57) ∨ n = 45
  · left; refine ⟨h, ?_⟩
    rcases h with h | h | h <;> simp [h]
  · right
    refine ⟨by omega, by omega, ?_⟩
    rw [Bool.eq_false_iff]; intro e
    simp only [Bool.or_eq_true, Bool.and_eq_true, decide_eq_true_eq, beq_iff_eq] at e
    omega
set_option maxRecDepth 100000 in
set_option maxHeartbeats 1600000 in
theorem refName_any (s : ByteArray) (w : World) (hs : s.size ≤ maxLen) :
    Calls Try.prog 97 #[.string s] w fun e w' => e = .returned (.bool (nameP s.data.toList)) ∧ w' = w := by
  unfold maxLen at hs
  by_cases h0 : s.size = 0
  · have he := str_nil h0
    subst he
    go_enter Try.func97, Try.ntmps97
    go_wp2
    go_ret
    exact ⟨rfl, rfl⟩
  have hpos : 0 < s.size := by omega
  by_cases h12 : 12 < s.size
  · have HR : Hid (nameP s.data.toList = false) := Lib.hid (by unfold nameP; rw [str_len, decide_eq_false (show ¬ s.size ≤ 12 by omega)]; simp)
    go_enter Try.func97, Try.ntmps97
    go_wp2
    go_ret
    exact ⟨by rw [HR.out]; first | done | rfl, by first | rfl | trivial⟩
  obtain ⟨b, hb⟩ : ∃ b, s[0] = b := ⟨_, rfl⟩
  have hg := str_get hpos
  rw [hb] at hg
  by_cases h97 : b.toNat < 97
  · have HR : Hid (nameP s.data.toList = false) := Lib.hid (by unfold nameP headB letterB; rw [hg]; simp only []; rw [decide_eq_false (show ¬ 97 ≤ b.toNat by omega)]; simp)
    clear hg
    have d1 : decide ((b.toNat : Int) < 97) = true := decide_eq_true (by omega)
    go_enter Try.func97, Try.ntmps97
    go_wp2
    go_ret
    exact ⟨by rw [HR.out]; first | done | rfl, by first | rfl | trivial⟩
  by_cases h122 : 122 < b.toNat
  · have HR : Hid (nameP s.data.toList = false) := Lib.hid (by unfold nameP headB letterB; rw [hg]; simp only []; rw [decide_eq_false (show ¬ b.toNat ≤ 122 by omega)]; simp)
    clear hg
    have d1 : decide ((b.toNat : Int) < 97) = false := decide_eq_false (by omega)
    have d2 : decide (122 < (b.toNat : Int)) = true := decide_eq_true (by omega)
    go_enter Try.func97, Try.ntmps97
    go_wp2
    go_ret
    exact ⟨by rw [HR.out]; first | done | rfl, by first | rfl | trivial⟩
  have HR : Hid (nameP s.data.toList = nbL s.data.toList) := Lib.hid (by
    unfold nameP headB letterB; rw [hg, str_len, decide_eq_true (show s.size ≤ 12 by omega), decide_eq_true (show 1 ≤ s.size by omega)]; simp only []
    rw [decide_eq_true (show 97 ≤ b.toNat by omega), decide_eq_true (show b.toNat ≤ 122 by omega)]; rfl)
  clear hg
  have d1 : decide ((b.toNat : Int) < 97) = false := decide_eq_false (by omega)
  have d2 : decide (122 < (b.toNat : Int)) = false := decide_eq_false (by omega)
  go_enter Try.func97, Try.ntmps97
  go_wp2
  clear d1 d2
  go_loopw [3, 4] (fun i v wr => ∃ k : Nat, k ≤ s.size ∧ wr = w ∧ Hid (nbL (s.data.toList.take k) = true) ∧ i = .int .i64 k) (fun i _ _ => s.size - (intOf i).toNat)
  case atStart => exact ⟨0, by omega, by first | rfl | trivial, Lib.hid rfl, rfl⟩
  case round =>
    clear h97 h122
    obtain ⟨k, hk, rfl, HA, rfl⟩ := hrel
    by_cases hlt : k < s.size
    · obtain ⟨b, hb⟩ : ∃ b, s[k] = b := ⟨_, rfl⟩
      have hg := str_get hlt
      rw [hb] at hg
      have HG := Lib.hid hg; clear hg
      have hb256 := UInt8.toNat_lt b
      rcases nb_cases b.toNat with ⟨h, hal⟩ | ⟨h, h45, hal⟩
      · have HS : Hid (nbL (s.data.toList.take (k + 1)) = true) := Lib.hid (by rw [nbL_take HG.out, HA.out, hal]; rfl)
        clear hal
        rcases h with ⟨ha, hc⟩ | ⟨ha, hc⟩ | hq
        · go_wp2
          go_roundw
          case rel => exact ⟨k + 1, by omega, by first | rfl | trivial, HS, by go_num⟩
          case measure => (simp [intOf]) <;> omega
        · go_wp2
          go_roundw
          case rel => exact ⟨k + 1, by omega, by first | rfl | trivial, HS, by go_num⟩
          case measure => (simp [intOf]) <;> omega
        · have hq' : (b.toNat : Int) = 45 := by omega
          go_wp2
          go_roundw
          case rel => exact ⟨k + 1, by omega, by first | rfl | trivial, HS, by go_num⟩
          case measure => (simp [intOf]) <;> omega
      · have HS : Hid (nbL s.data.toList = false) := Lib.hid (nbL_stop HG.out hal)
        clear hal
        have e3 : ((b.toNat : Int) == 45) = false := ne_int' h45
        rcases h with ha | ⟨ha, hc⟩ | ha
        · have d1 : decide (97 ≤ (b.toNat : Int)) = false := decide_eq_false (by omega)
          have d2 : decide (48 ≤ (b.toNat : Int)) = false := decide_eq_false (by omega)
          go_wp2
          go_ret
          exact ⟨by rw [HR.out, HS.out]; first | done | rfl, by first | rfl | trivial⟩
        · have d1 : decide (97 ≤ (b.toNat : Int)) = false := decide_eq_false (by omega)
          have d2 : decide (48 ≤ (b.toNat : Int)) = true := decide_eq_true (by omega)
          have d3 : decide ((b.toNat : Int) ≤ 57) = false := decide_eq_false (by omega)
          go_wp2
          go_ret
          exact ⟨by rw [HR.out, HS.out]; first | done | rfl, by first | rfl | trivial⟩
        · have d1 : decide (97 ≤ (b.toNat : Int)) = true := decide_eq_true (by omega)
          have d2 : decide ((b.toNat : Int) ≤ 122) = false := decide_eq_false (by omega)
          have d3 : decide ((b.toNat : Int) ≤ 57) = false := decide_eq_false (by omega)
          have d4 : decide (48 ≤ (b.toNat : Int)) = true := decide_eq_true (by omega)
          go_wp2
          go_ret
          exact ⟨by rw [HR.out, HS.out]; first | done | rfl, by first | rfl | trivial⟩
    · have HS : Hid (nbL s.data.toList = true) := Lib.hid (by have := HA.out; rwa [List.take_of_length_le (by rw [str_len]; omega)] at this)
      go_wp2
      go_ret
      exact ⟨by rw [HR.out, HS.out]; first | done | rfl, by first | rfl | trivial⟩
/-- Names, ends: the answers, by the arguments; nothing that simp looks into. -/
def nmB (s : ByteArray) : Bool := nameP s.data.toList
def mayE (p : ByteArray) (c : Int) : Bool := nmB p && decide (0 ≤ c) && decide (c ≤ 999)
set_option maxRecDepth 100000 in
set_option maxHeartbeats 1600000 in
theorem mayEnd_any (p : ByteArray) (c : Int) (w : World) (hp : p.size ≤ maxLen) :
    Calls Try.prog 91 #[.agg #[.string p, .int .i64 c]] w fun e w' => e = .returned (.bool (mayE p c)) ∧ Below w.heap.size w w' := by
  cases hn : nmB p
  · have HR : Hid (mayE p c = false) := Lib.hid (by unfold mayE; rw [hn]; rfl)
    go_enter Try.func91, Try.ntmps91
    go_wp2_with (go_at_call 111; refine (name_any p _ hp).mono ?_; rintro e w1 ⟨rfl, hw1⟩; obtain rfl : _ = w1 := hw1.symm; rw [show nameP p.data.toList = false from hn])
    go_ret
    exact ⟨by rw [HR.out]; first | done | rfl, by go_grown⟩
  · by_cases h0 : 0 ≤ c
    · by_cases h9 : c ≤ 999
      · have HR : Hid (mayE p c = true) := Lib.hid (by unfold mayE; rw [hn, decide_eq_true h0, decide_eq_true h9]; rfl)
        go_enter Try.func91, Try.ntmps91
        go_wp2_with (go_at_call 111; refine (name_any p _ hp).mono ?_; rintro e w1 ⟨rfl, hw1⟩; obtain rfl : _ = w1 := hw1.symm; rw [show nameP p.data.toList = true from hn])
        go_ret
        exact ⟨by rw [HR.out]; first | done | rfl, by go_grown⟩
      · have HR : Hid (mayE p c = false) := Lib.hid (by unfold mayE; rw [decide_eq_false h9, Bool.and_false])
        have d1 : decide (c ≤ 999) = false := decide_eq_false h9
        go_enter Try.func91, Try.ntmps91
        go_wp2_with (go_at_call 111; refine (name_any p _ hp).mono ?_; rintro e w1 ⟨rfl, hw1⟩; obtain rfl : _ = w1 := hw1.symm; rw [show nameP p.data.toList = true from hn])
        go_ret
        exact ⟨by rw [HR.out]; first | done | rfl, by go_grown⟩
    · have HR : Hid (mayE p c = false) := Lib.hid (by unfold mayE; rw [decide_eq_false h0, Bool.and_false]; rfl)
      have d1 : decide (0 ≤ c) = false := decide_eq_false h0
      go_enter Try.func91, Try.ntmps91
      go_wp2_with (go_at_call 111; refine (name_any p _ hp).mono ?_; rintro e w1 ⟨rfl, hw1⟩; obtain rfl : _ = w1 := hw1.symm; rw [show nameP p.data.toList = true from hn])
      go_ret
      exact ⟨by rw [HR.out]; first | done | rfl, by go_grown⟩
set_option maxRecDepth 100000 in
set_option maxHeartbeats 1600000 in
theorem refMayEnd_any (p : ByteArray) (c : Int) (w : World) (hp : p.size ≤ maxLen) :
    Calls Try.prog 68 #[.agg #[.string p, .int .i64 c]] w fun e w' => e = .returned (.bool (mayE p c)) ∧ Below w.heap.size w w' := by
  cases hn : nmB p
  · have HR : Hid (mayE p c = false) := Lib.hid (by unfold mayE; rw [hn]; rfl)
    go_enter Try.func68, Try.ntmps68
    go_wp2_with (go_at_call 97; refine (refName_any p _ hp).mono ?_; rintro e w1 ⟨rfl, hw1⟩; obtain rfl : _ = w1 := hw1.symm; rw [show nameP p.data.toList = false from hn])
    go_ret
    exact ⟨by rw [HR.out]; first | done | rfl, by go_grown⟩
  · by_cases h0 : 0 ≤ c
    · by_cases h9 : c ≤ 999
      · have HR : Hid (mayE p c = true) := Lib.hid (by unfold mayE; rw [hn, decide_eq_true h0, decide_eq_true h9]; rfl)
        go_enter Try.func68, Try.ntmps68
        go_wp2_with (go_at_call 97; refine (refName_any p _ hp).mono ?_; rintro e w1 ⟨rfl, hw1⟩; obtain rfl : _ = w1 := hw1.symm; rw [show nameP p.data.toList = true from hn])
        go_ret
        exact ⟨by rw [HR.out]; first | done | rfl, by go_grown⟩
      · have HR : Hid (mayE p c = false) := Lib.hid (by unfold mayE; rw [decide_eq_false h9, Bool.and_false])
        have d1 : decide (c ≤ 999) = false := decide_eq_false h9
        go_enter Try.func68, Try.ntmps68
        go_wp2_with (go_at_call 97; refine (refName_any p _ hp).mono ?_; rintro e w1 ⟨rfl, hw1⟩; obtain rfl : _ = w1 := hw1.symm; rw [show nameP p.data.toList = true from hn])
        go_ret
        exact ⟨by rw [HR.out]; first | done | rfl, by go_grown⟩
    · have HR : Hid (mayE p c = false) := Lib.hid (by unfold mayE; rw [decide_eq_false h0, Bool.and_false]; rfl)
      have d1 : decide (0 ≤ c) = false := decide_eq_false h0
      go_enter Try.func68, Try.ntmps68
      go_wp2_with (go_at_call 97; refine (refName_any p _ hp).mono ?_; rintro e w1 ⟨rfl, hw1⟩; obtain rfl : _ = w1 := hw1.symm; rw [show nameP p.data.toList = true from hn])
      go_ret
      exact ⟨by rw [HR.out]; first | done | rfl, by go_grown⟩
def mayK (sp : ByteArray) (sc : Int) (dp : ByteArray) (dc seq : Int) (dat : ByteArray) (th ta : Int) : Bool := mayE sp sc && mayE dp dc && decide (1 ≤ seq) && decide (seq ≤ 1099511627776) && decide (dat.size ≤ 200) && decide (0 ≤ th) && decide (th ≤ 1099511627776) && decide (0 ≤ ta) && decide (ta ≤ 1099511627776)
set_option maxRecDepth 100000 in
set_option maxHeartbeats 6400000 in
theorem mayPk_any (sp : ByteArray) (sc : Int) (dp : ByteArray) (dc seq : Int) (dat : ByteArray) (th ta : Int) (w : World) (hs1 : sp.size ≤ maxLen) (hs2 : dp.size ≤ maxLen) :
    Calls Try.prog 92 #[.agg #[.string sp, .int .i64 sc, .string dp, .int .i64 dc, .int .i64 seq, .string dat, .int .i64 th, .int .i64 ta]] w fun e w' => e = .returned (.bool (mayK sp sc dp dc seq dat th ta)) ∧ Below w.heap.size w w' := by
  cases q0 : mayE sp sc
  · have HR : Hid (mayK sp sc dp dc seq dat th ta = false) := Lib.hid (by unfold mayK; rw [q0]; simp)
    have q1 := q0
    go_enter Try.func92, Try.ntmps92
    go_wp2_with (go_at_call 91; refine (mayEnd_any _ _ _ (by with_reducible assumption)).mono ?_; rintro e w1 ⟨rfl, hb⟩; (first | rw [q0] | rw [q1]); obtain ⟨hc1, hf1⟩ := bcell hb; have hz1 : w.heap.size < w1.heap.size := (by have := hb.size; (try simp at this); omega))
    go_ret
    exact ⟨by rw [HR.out]; first | done | rfl, by repeat (first | assumption | exact Below.refl _ _ | refine bch ?_ (by assumption) | refine Below.alloc ?_ (by simp) _)⟩
  cases q1 : mayE dp dc
  · have HR : Hid (mayK sp sc dp dc seq dat th ta = false) := Lib.hid (by unfold mayK; rw [q1]; simp)
    go_enter Try.func92, Try.ntmps92
    go_wp2_with (go_at_call 91; refine (mayEnd_any _ _ _ (by with_reducible assumption)).mono ?_; rintro e w1 ⟨rfl, hb⟩; (first | rw [q0] | rw [q1]); obtain ⟨hc1, hf1⟩ := bcell hb; have hz1 : w.heap.size < w1.heap.size := (by have := hb.size; (try simp at this); omega))
    go_ret
    exact ⟨by rw [HR.out]; first | done | rfl, by repeat (first | assumption | exact Below.refl _ _ | refine bch ?_ (by assumption) | refine Below.alloc ?_ (by simp) _)⟩
  cases q2 : decide (1 ≤ seq)
  · have HR : Hid (mayK sp sc dp dc seq dat th ta = false) := Lib.hid (by unfold mayK; rw [q2]; simp)
    go_enter Try.func92, Try.ntmps92
    go_wp2_with (go_at_call 91; refine (mayEnd_any _ _ _ (by with_reducible assumption)).mono ?_; rintro e w1 ⟨rfl, hb⟩; (first | rw [q0] | rw [q1]); obtain ⟨hc1, hf1⟩ := bcell hb; have hz1 : w.heap.size < w1.heap.size := (by have := hb.size; (try simp at this); omega))
    go_ret
    exact ⟨by rw [HR.out]; first | done | rfl, by repeat (first | assumption | exact Below.refl _ _ | refine bch ?_ (by assumption) | refine Below.alloc ?_ (by simp) _)⟩
  cases q3 : decide (seq ≤ 1099511627776)
  · have HR : Hid (mayK sp sc dp dc seq dat th ta = false) := Lib.hid (by unfold mayK; rw [q3]; simp)
    go_enter Try.func92, Try.ntmps92
    go_wp2_with (go_at_call 91; refine (mayEnd_any _ _ _ (by with_reducible assumption)).mono ?_; rintro e w1 ⟨rfl, hb⟩; (first | rw [q0] | rw [q1]); obtain ⟨hc1, hf1⟩ := bcell hb; have hz1 : w.heap.size < w1.heap.size := (by have := hb.size; (try simp at this); omega))
    go_ret
    exact ⟨by rw [HR.out]; first | done | rfl, by repeat (first | assumption | exact Below.refl _ _ | refine bch ?_ (by assumption) | refine Below.alloc ?_ (by simp) _)⟩
  cases q4 : decide (dat.size ≤ 200)
  · have HR : Hid (mayK sp sc dp dc seq dat th ta = false) := Lib.hid (by unfold mayK; rw [q4]; simp)
    have f4 : decide ((dat.size : Int) ≤ 200) = false := by rw [← q4, decide_eq_decide]; omega
    go_enter Try.func92, Try.ntmps92
    go_wp2_with (go_at_call 91; refine (mayEnd_any _ _ _ (by with_reducible assumption)).mono ?_; rintro e w1 ⟨rfl, hb⟩; (first | rw [q0] | rw [q1]); obtain ⟨hc1, hf1⟩ := bcell hb; have hz1 : w.heap.size < w1.heap.size := (by have := hb.size; (try simp at this); omega))
    go_ret
    exact ⟨by rw [HR.out]; first | done | rfl, by repeat (first | assumption | exact Below.refl _ _ | refine bch ?_ (by assumption) | refine Below.alloc ?_ (by simp) _)⟩
  cases q5 : decide (0 ≤ th)
  · have HR : Hid (mayK sp sc dp dc seq dat th ta = false) := Lib.hid (by unfold mayK; rw [q5]; simp)
    have f4 : decide ((dat.size : Int) ≤ 200) = true := by rw [← q4, decide_eq_decide]; omega
    go_enter Try.func92, Try.ntmps92
    go_wp2_with (go_at_call 91; refine (mayEnd_any _ _ _ (by with_reducible assumption)).mono ?_; rintro e w1 ⟨rfl, hb⟩; (first | rw [q0] | rw [q1]); obtain ⟨hc1, hf1⟩ := bcell hb; have hz1 : w.heap.size < w1.heap.size := (by have := hb.size; (try simp at this); omega))
    go_ret
    exact ⟨by rw [HR.out]; first | done | rfl, by repeat (first | assumption | exact Below.refl _ _ | refine bch ?_ (by assumption) | refine Below.alloc ?_ (by simp) _)⟩
  cases q6 : decide (th ≤ 1099511627776)
  · have HR : Hid (mayK sp sc dp dc seq dat th ta = false) := Lib.hid (by unfold mayK; rw [q6]; simp)
    have f4 : decide ((dat.size : Int) ≤ 200) = true := by rw [← q4, decide_eq_decide]; omega
    go_enter Try.func92, Try.ntmps92
    go_wp2_with (go_at_call 91; refine (mayEnd_any _ _ _ (by with_reducible assumption)).mono ?_; rintro e w1 ⟨rfl, hb⟩; (first | rw [q0] | rw [q1]); obtain ⟨hc1, hf1⟩ := bcell hb; have hz1 : w.heap.size < w1.heap.size := (by have := hb.size; (try simp at this); omega))
    go_ret
    exact ⟨by rw [HR.out]; first | done | rfl, by repeat (first | assumption | exact Below.refl _ _ | refine bch ?_ (by assumption) | refine Below.alloc ?_ (by simp) _)⟩
  cases q7 : decide (0 ≤ ta)
  · have HR : Hid (mayK sp sc dp dc seq dat th ta = false) := Lib.hid (by unfold mayK; rw [q7]; simp)
    have f4 : decide ((dat.size : Int) ≤ 200) = true := by rw [← q4, decide_eq_decide]; omega
    go_enter Try.func92, Try.ntmps92
    go_wp2_with (go_at_call 91; refine (mayEnd_any _ _ _ (by with_reducible assumption)).mono ?_; rintro e w1 ⟨rfl, hb⟩; (first | rw [q0] | rw [q1]); obtain ⟨hc1, hf1⟩ := bcell hb; have hz1 : w.heap.size < w1.heap.size := (by have := hb.size; (try simp at this); omega))
    go_ret
    exact ⟨by rw [HR.out]; first | done | rfl, by repeat (first | assumption | exact Below.refl _ _ | refine bch ?_ (by assumption) | refine Below.alloc ?_ (by simp) _)⟩
  cases q8 : decide (ta ≤ 1099511627776)
  · have HR : Hid (mayK sp sc dp dc seq dat th ta = false) := Lib.hid (by unfold mayK; rw [q8]; simp)
    have f4 : decide ((dat.size : Int) ≤ 200) = true := by rw [← q4, decide_eq_decide]; omega
    go_enter Try.func92, Try.ntmps92
    go_wp2_with (go_at_call 91; refine (mayEnd_any _ _ _ (by with_reducible assumption)).mono ?_; rintro e w1 ⟨rfl, hb⟩; (first | rw [q0] | rw [q1]); obtain ⟨hc1, hf1⟩ := bcell hb; have hz1 : w.heap.size < w1.heap.size := (by have := hb.size; (try simp at this); omega))
    go_ret
    exact ⟨by rw [HR.out]; first | done | rfl, by repeat (first | assumption | exact Below.refl _ _ | refine bch ?_ (by assumption) | refine Below.alloc ?_ (by simp) _)⟩
  have HR : Hid (mayK sp sc dp dc seq dat th ta = true) := Lib.hid (by unfold mayK; rw [q0, q1, q2, q3, q4, q5, q6, q7, q8]; rfl)
  have f4 : decide ((dat.size : Int) ≤ 200) = true := by rw [← q4, decide_eq_decide]; omega
  go_enter Try.func92, Try.ntmps92
  go_wp2_with (go_at_call 91; refine (mayEnd_any _ _ _ (by with_reducible assumption)).mono ?_; rintro e w1 ⟨rfl, hb⟩; (first | rw [q0] | rw [q1]); obtain ⟨hc1, hf1⟩ := bcell hb; have hz1 : w.heap.size < w1.heap.size := (by have := hb.size; (try simp at this); omega))
  go_ret
  exact ⟨by rw [HR.out]; first | done | rfl, by repeat (first | assumption | exact Below.refl _ _ | refine bch ?_ (by assumption) | refine Below.alloc ?_ (by simp) _)⟩
set_option maxRecDepth 100000 in
set_option maxHeartbeats 6400000 in
theorem refMayPk_any (sp : ByteArray) (sc : Int) (dp : ByteArray) (dc seq : Int) (dat : ByteArray) (th ta : Int) (w : World) (hs1 : sp.size ≤ maxLen) (hs2 : dp.size ≤ maxLen) :
    Calls Try.prog 69 #[.agg #[.string sp, .int .i64 sc, .string dp, .int .i64 dc, .int .i64 seq, .string dat, .int .i64 th, .int .i64 ta]] w fun e w' => e = .returned (.bool (mayK sp sc dp dc seq dat th ta)) ∧ Below w.heap.size w w' := by
  cases q0 : mayE sp sc
  · have HR : Hid (mayK sp sc dp dc seq dat th ta = false) := Lib.hid (by unfold mayK; rw [q0]; simp)
    have q1 := q0
    go_enter Try.func69, Try.ntmps69
    go_wp2_with (go_at_call 68; refine (refMayEnd_any _ _ _ (by with_reducible assumption)).mono ?_; rintro e w1 ⟨rfl, hb⟩; (first | rw [q0] | rw [q1]); obtain ⟨hc1, hf1⟩ := bcell hb; have hz1 : w.heap.size < w1.heap.size := (by have := hb.size; (try simp at this); omega))
    go_ret
    exact ⟨by rw [HR.out]; first | done | rfl, by repeat (first | assumption | exact Below.refl _ _ | refine bch ?_ (by assumption) | refine Below.alloc ?_ (by simp) _)⟩
  cases q1 : mayE dp dc
  · have HR : Hid (mayK sp sc dp dc seq dat th ta = false) := Lib.hid (by unfold mayK; rw [q1]; simp)
    go_enter Try.func69, Try.ntmps69
    go_wp2_with (go_at_call 68; refine (refMayEnd_any _ _ _ (by with_reducible assumption)).mono ?_; rintro e w1 ⟨rfl, hb⟩; (first | rw [q0] | rw [q1]); obtain ⟨hc1, hf1⟩ := bcell hb; have hz1 : w.heap.size < w1.heap.size := (by have := hb.size; (try simp at this); omega))
    go_ret
    exact ⟨by rw [HR.out]; first | done | rfl, by repeat (first | assumption | exact Below.refl _ _ | refine bch ?_ (by assumption) | refine Below.alloc ?_ (by simp) _)⟩
  cases q2 : decide (1 ≤ seq)
  · have HR : Hid (mayK sp sc dp dc seq dat th ta = false) := Lib.hid (by unfold mayK; rw [q2]; simp)
    go_enter Try.func69, Try.ntmps69
    go_wp2_with (go_at_call 68; refine (refMayEnd_any _ _ _ (by with_reducible assumption)).mono ?_; rintro e w1 ⟨rfl, hb⟩; (first | rw [q0] | rw [q1]); obtain ⟨hc1, hf1⟩ := bcell hb; have hz1 : w.heap.size < w1.heap.size := (by have := hb.size; (try simp at this); omega))
    go_ret
    exact ⟨by rw [HR.out]; first | done | rfl, by repeat (first | assumption | exact Below.refl _ _ | refine bch ?_ (by assumption) | refine Below.alloc ?_ (by simp) _)⟩
  cases q3 : decide (seq ≤ 1099511627776)
  · have HR : Hid (mayK sp sc dp dc seq dat th ta = false) := Lib.hid (by unfold mayK; rw [q3]; simp)
    go_enter Try.func69, Try.ntmps69
    go_wp2_with (go_at_call 68; refine (refMayEnd_any _ _ _ (by with_reducible assumption)).mono ?_; rintro e w1 ⟨rfl, hb⟩; (first | rw [q0] | rw [q1]); obtain ⟨hc1, hf1⟩ := bcell hb; have hz1 : w.heap.size < w1.heap.size := (by have := hb.size; (try simp at this); omega))
    go_ret
    exact ⟨by rw [HR.out]; first | done | rfl, by repeat (first | assumption | exact Below.refl _ _ | refine bch ?_ (by assumption) | refine Below.alloc ?_ (by simp) _)⟩
  cases q4 : decide (dat.size ≤ 200)
  · have HR : Hid (mayK sp sc dp dc seq dat th ta = false) := Lib.hid (by unfold mayK; rw [q4]; simp)
    have f4 : decide ((dat.size : Int) ≤ 200) = false := by rw [← q4, decide_eq_decide]; omega
    go_enter Try.func69, Try.ntmps69
    go_wp2_with (go_at_call 68; refine (refMayEnd_any _ _ _ (by with_reducible assumption)).mono ?_; rintro e w1 ⟨rfl, hb⟩; (first | rw [q0] | rw [q1]); obtain ⟨hc1, hf1⟩ := bcell hb; have hz1 : w.heap.size < w1.heap.size := (by have := hb.size; (try simp at this); omega))
    go_ret
    exact ⟨by rw [HR.out]; first | done | rfl, by repeat (first | assumption | exact Below.refl _ _ | refine bch ?_ (by assumption) | refine Below.alloc ?_ (by simp) _)⟩
  cases q5 : decide (0 ≤ th)
  · have HR : Hid (mayK sp sc dp dc seq dat th ta = false) := Lib.hid (by unfold mayK; rw [q5]; simp)
    have f4 : decide ((dat.size : Int) ≤ 200) = true := by rw [← q4, decide_eq_decide]; omega
    go_enter Try.func69, Try.ntmps69
    go_wp2_with (go_at_call 68; refine (refMayEnd_any _ _ _ (by with_reducible assumption)).mono ?_; rintro e w1 ⟨rfl, hb⟩; (first | rw [q0] | rw [q1]); obtain ⟨hc1, hf1⟩ := bcell hb; have hz1 : w.heap.size < w1.heap.size := (by have := hb.size; (try simp at this); omega))
    go_ret
    exact ⟨by rw [HR.out]; first | done | rfl, by repeat (first | assumption | exact Below.refl _ _ | refine bch ?_ (by assumption) | refine Below.alloc ?_ (by simp) _)⟩
  cases q6 : decide (th ≤ 1099511627776)
  · have HR : Hid (mayK sp sc dp dc seq dat th ta = false) := Lib.hid (by unfold mayK; rw [q6]; simp)
    have f4 : decide ((dat.size : Int) ≤ 200) = true := by rw [← q4, decide_eq_decide]; omega
    go_enter Try.func69, Try.ntmps69
    go_wp2_with (go_at_call 68; refine (refMayEnd_any _ _ _ (by with_reducible assumption)).mono ?_; rintro e w1 ⟨rfl, hb⟩; (first | rw [q0] | rw [q1]); obtain ⟨hc1, hf1⟩ := bcell hb; have hz1 : w.heap.size < w1.heap.size := (by have := hb.size; (try simp at this); omega))
    go_ret
    exact ⟨by rw [HR.out]; first | done | rfl, by repeat (first | assumption | exact Below.refl _ _ | refine bch ?_ (by assumption) | refine Below.alloc ?_ (by simp) _)⟩
  cases q7 : decide (0 ≤ ta)
  · have HR : Hid (mayK sp sc dp dc seq dat th ta = false) := Lib.hid (by unfold mayK; rw [q7]; simp)
    have f4 : decide ((dat.size : Int) ≤ 200) = true := by rw [← q4, decide_eq_decide]; omega
    go_enter Try.func69, Try.ntmps69
    go_wp2_with (go_at_call 68; refine (refMayEnd_any _ _ _ (by with_reducible assumption)).mono ?_; rintro e w1 ⟨rfl, hb⟩; (first | rw [q0] | rw [q1]); obtain ⟨hc1, hf1⟩ := bcell hb; have hz1 : w.heap.size < w1.heap.size := (by have := hb.size; (try simp at this); omega))
    go_ret
    exact ⟨by rw [HR.out]; first | done | rfl, by repeat (first | assumption | exact Below.refl _ _ | refine bch ?_ (by assumption) | refine Below.alloc ?_ (by simp) _)⟩
  cases q8 : decide (ta ≤ 1099511627776)
  · have HR : Hid (mayK sp sc dp dc seq dat th ta = false) := Lib.hid (by unfold mayK; rw [q8]; simp)
    have f4 : decide ((dat.size : Int) ≤ 200) = true := by rw [← q4, decide_eq_decide]; omega
    go_enter Try.func69, Try.ntmps69
    go_wp2_with (go_at_call 68; refine (refMayEnd_any _ _ _ (by with_reducible assumption)).mono ?_; rintro e w1 ⟨rfl, hb⟩; (first | rw [q0] | rw [q1]); obtain ⟨hc1, hf1⟩ := bcell hb; have hz1 : w.heap.size < w1.heap.size := (by have := hb.size; (try simp at this); omega))
    go_ret
    exact ⟨by rw [HR.out]; first | done | rfl, by repeat (first | assumption | exact Below.refl _ _ | refine bch ?_ (by assumption) | refine Below.alloc ?_ (by simp) _)⟩
  have HR : Hid (mayK sp sc dp dc seq dat th ta = true) := Lib.hid (by unfold mayK; rw [q0, q1, q2, q3, q4, q5, q6, q7, q8]; rfl)
  have f4 : decide ((dat.size : Int) ≤ 200) = true := by rw [← q4, decide_eq_decide]; omega
  go_enter Try.func69, Try.ntmps69
  go_wp2_with (go_at_call 68; refine (refMayEnd_any _ _ _ (by with_reducible assumption)).mono ?_; rintro e w1 ⟨rfl, hb⟩; (first | rw [q0] | rw [q1]); obtain ⟨hc1, hf1⟩ := bcell hb; have hz1 : w.heap.size < w1.heap.size := (by have := hb.size; (try simp at this); omega))
  go_ret
  exact ⟨by rw [HR.out]; first | done | rfl, by repeat (first | assumption | exact Below.refl _ _ | refine bch ?_ (by assumption) | refine Below.alloc ?_ (by simp) _)⟩
abbrev PkT := (ByteArray × Int) × (ByteArray × Int) × Int × ByteArray × Int × Int
def PkT.row (p : PkT) : Array Value := #[.string p.1.1, .int .i64 p.1.2, .string p.2.1.1, .int .i64 p.2.1.2, .int .i64 p.2.2.1, .string p.2.2.2.1, .int .i64 p.2.2.2.2.1, .int .i64 p.2.2.2.2.2]
def pkEq (a b : PkT) : Bool := (a.1.1.toList == b.1.1.toList) && (a.1.2 == b.1.2) && (a.2.1.1.toList == b.2.1.1.toList) && (a.2.1.2 == b.2.1.2) && (a.2.2.1 == b.2.2.1) && (a.2.2.2.1.toList == b.2.2.2.1.toList) && (a.2.2.2.2.1 == b.2.2.2.2.1) && (a.2.2.2.2.2 == b.2.2.2.2.2)
set_option maxRecDepth 100000 in
set_option maxHeartbeats 1600000 in
theorem run_equal_pk (sp1 sp2 : ByteArray) (sc1 sc2 : Int) (dp1 dp2 : ByteArray) (dc1 dc2 : Int) (sq1 sq2 : Int) (da1 da2 : ByteArray) (th1 th2 : Int) (ta1 ta2 : Int) (W : World) :
    (Op.equalIn 10000 74 (.agg #[.string sp1, .int .i64 sc1, .string dp1, .int .i64 dc1, .int .i64 sq1, .string da1, .int .i64 th1, .int .i64 ta1]) (.agg #[.string sp2, .int .i64 sc2, .string dp2, .int .i64 dc2, .int .i64 sq2, .string da2, .int .i64 th2, .int .i64 ta2])).run Try.prog W = .ok (pkEq ((sp1, sc1), (dp1, dc1), sq1, da1, th1, ta1) ((sp2, sc2), (dp2, dc2), sq2, da2, th2, ta2)) W := by
  unfold pkEq
  simp only
  cases hsp : (sp1.toList == sp2.toList)
  · simp [go_sem, hsp]
  cases hsc : (sc1 == sc2)
  · simp [go_sem, hsp, hsc]
  cases hdp : (dp1.toList == dp2.toList)
  · simp [go_sem, hsp, hsc, hdp]
  cases hdc : (dc1 == dc2)
  · simp [go_sem, hsp, hsc, hdp, hdc]
  cases hsq : (sq1 == sq2)
  · simp [go_sem, hsp, hsc, hdp, hdc, hsq]
  cases hda : (da1.toList == da2.toList)
  · simp [go_sem, hsp, hsc, hdp, hdc, hsq, hda]
  cases hth : (th1 == th2)
  · simp [go_sem, hsp, hsc, hdp, hdc, hsq, hda, hth]
  cases hta : (ta1 == ta2)
  · simp [go_sem, hsp, hsc, hdp, hdc, hsq, hda, hth, hta]
  simp [go_sem, hsp, hsc, hdp, hdc, hsq, hda, hth, hta]
set_option maxRecDepth 100000 in
set_option maxHeartbeats 3200000 in
theorem pkSame_any (sp1 sp2 : ByteArray) (sc1 sc2 : Int) (dp1 dp2 : ByteArray) (dc1 dc2 : Int) (sq1 sq2 : Int) (da1 da2 : ByteArray) (th1 th2 : Int) (ta1 ta2 : Int) (w : World) :
    Calls Try.prog 61 #[.agg #[.string sp1, .int .i64 sc1, .string dp1, .int .i64 dc1, .int .i64 sq1, .string da1, .int .i64 th1, .int .i64 ta1], .agg #[.string sp2, .int .i64 sc2, .string dp2, .int .i64 dc2, .int .i64 sq2, .string da2, .int .i64 th2, .int .i64 ta2]] w fun e w' => e = .returned (.bool (pkEq ((sp1, sc1), (dp1, dc1), sq1, da1, th1, ta1) ((sp2, sc2), (dp2, dc2), sq2, da2, th2, ta2))) ∧ Below w.heap.size w w' := by
  have hEQ := run_equal_pk sp1 sp2 sc1 sc2 dp1 dp2 dc1 dc2 sq1 sq2 da1 da2 th1 th2 ta1 ta2
  obtain ⟨B, hB⟩ : ∃ B, pkEq ((sp1, sc1), (dp1, dc1), sq1, da1, th1, ta1) ((sp2, sc2), (dp2, dc2), sq2, da2, th2, ta2) = B := ⟨_, rfl⟩
  simp only [hB] at hEQ ⊢
  have hg0 := al2_0 w (.cells #[.string sp1, .int .i64 sc1, .string dp1, .int .i64 dc1, .int .i64 sq1, .string da1, .int .i64 th1, .int .i64 ta1] 74) (.cells #[.string sp2, .int .i64 sc2, .string dp2, .int .i64 dc2, .int .i64 sq2, .string da2, .int .i64 th2, .int .i64 ta2] 74)
  have hg1 := al2_1 w (.cells #[.string sp1, .int .i64 sc1, .string dp1, .int .i64 dc1, .int .i64 sq1, .string da1, .int .i64 th1, .int .i64 ta1] 74) (.cells #[.string sp2, .int .i64 sc2, .string dp2, .int .i64 dc2, .int .i64 sq2, .string da2, .int .i64 th2, .int .i64 ta2] 74)
  have hbA := al2_below w (.cells #[.string sp1, .int .i64 sc1, .string dp1, .int .i64 dc1, .int .i64 sq1, .string da1, .int .i64 th1, .int .i64 ta1] 74) (.cells #[.string sp2, .int .i64 sc2, .string dp2, .int .i64 dc2, .int .i64 sq2, .string da2, .int .i64 th2, .int .i64 ta2] 74)
  clear hB
  go_enter Try.func61, Try.ntmps61
  go_upto_region 1 with fail
  refine wp_nameE _ (fun W1 hX => ?_)
  have hg : W1.heap[w.heap.size]? = some (.cells #[.string sp1, .int .i64 sc1, .string dp1, .int .i64 dc1, .int .i64 sq1, .string da1, .int .i64 th1, .int .i64 ta1] 74 (0, 0)) := by rw [hX]; exact hg0
  have hh : W1.heap[w.heap.size + 1]? = some (.cells #[.string sp2, .int .i64 sc2, .string dp2, .int .i64 dc2, .int .i64 sq2, .string da2, .int .i64 th2, .int .i64 ta2] 74 (0, 0)) := by rw [hX]; exact hg1
  have hbel : Below w.heap.size w W1 := by rw [hX]; exact hbA
  clear hX hg0 hg1 hbA
  have q0 := cell_heap hg 0; have q1 := cell_heap hg 1; have q2 := cell_heap hg 2; have q3 := cell_heap hg 3; have q4 := cell_heap hg 4; have q5 := cell_heap hg 5; have q6 := cell_heap hg 6; have q7 := cell_heap hg 7
  have r0 := cell_heap hh 0; have r1 := cell_heap hh 1; have r2 := cell_heap hh 2; have r3 := cell_heap hh 3; have r4 := cell_heap hh 4; have r5 := cell_heap hh 5; have r6 := cell_heap hh 6; have r7 := cell_heap hh 7
  go_wp2
  go_ret
  exact ⟨rfl, hbel⟩
def lessE (p : ByteArray) (c : Int) (q : ByteArray) (d : Int) : Bool := if p = q then decide (c < d) else Op.bytesLess p.toList q.toList
theorem less_irrefl (l : List UInt8) : Op.bytesLess l l = false := by
  induction l with
  | nil => rfl
  | cons a l ih => simp [Op.bytesLess, ih]
set_option maxRecDepth 100000 in
set_option maxHeartbeats 1600000 in
theorem less_any (p : ByteArray) (c : Int) (q : ByteArray) (d : Int) (w : World) :
    Calls Try.prog 101 #[.agg #[.string p, .int .i64 c], .agg #[.string q, .int .i64 d]] w fun e w' => e = .returned (.bool (lessE p c q d)) ∧ Below w.heap.size w w' := by
  by_cases hpq : p = q
  · subst hpq
    have hb := less_irrefl p.toList
    obtain ⟨x, hx⟩ : ∃ x, decide (c < d) = x := ⟨_, rfl⟩
    have HR : Hid (lessE p c p d = x) := Lib.hid (by unfold lessE; rw [if_pos rfl]; exact hx)
    cases x
    all_goals
      go_enter Try.func101, Try.ntmps101
      go_wp2
      go_ret
      exact ⟨by rw [HR.out]; first | done | rfl, by repeat (first | assumption | exact Below.refl _ _ | refine bch ?_ (by assumption) | refine Below.alloc ?_ (by (try simp) <;> omega) _)⟩
  · have e1 : (p.toList == q.toList) = false := by rw [ByteArray.toList_eq, ByteArray.toList_eq, beq_eq_false_iff_ne]; exact fun e => hpq (ByteArray.ext (Array.toList_inj.1 e))
    obtain ⟨x, hx⟩ : ∃ x, Op.bytesLess p.toList q.toList = x := ⟨_, rfl⟩
    have HR : Hid (lessE p c q d = x) := Lib.hid (by unfold lessE; rw [if_neg hpq]; exact hx)
    cases x
    all_goals
      go_enter Try.func101, Try.ntmps101
      go_wp2
      go_ret
      exact ⟨by rw [HR.out]; first | done | rfl, by repeat (first | assumption | exact Below.refl _ _ | refine bch ?_ (by assumption) | refine Below.alloc ?_ (by (try simp) <;> omega) _)⟩
set_option maxRecDepth 100000 in
set_option maxHeartbeats 1600000 in
theorem refLess_any (p : ByteArray) (c : Int) (q : ByteArray) (d : Int) (w : World) :
    Calls Try.prog 95 #[.agg #[.string p, .int .i64 c], .agg #[.string q, .int .i64 d]] w fun e w' => e = .returned (.bool (lessE p c q d)) ∧ Below w.heap.size w w' := by
  by_cases hpq : p = q
  · subst hpq
    have hb := less_irrefl p.toList
    obtain ⟨x, hx⟩ : ∃ x, decide (c < d) = x := ⟨_, rfl⟩
    have HR : Hid (lessE p c p d = x) := Lib.hid (by unfold lessE; rw [if_pos rfl]; exact hx)
    cases x
    all_goals
      go_enter Try.func95, Try.ntmps95
      go_wp2
      go_ret
      exact ⟨by rw [HR.out]; first | done | rfl, by repeat (first | assumption | exact Below.refl _ _ | refine bch ?_ (by assumption) | refine Below.alloc ?_ (by (try simp) <;> omega) _)⟩
  · have e1 : (p.toList == q.toList) = false := by rw [ByteArray.toList_eq, ByteArray.toList_eq, beq_eq_false_iff_ne]; exact fun e => hpq (ByteArray.ext (Array.toList_inj.1 e))
    obtain ⟨x, hx⟩ : ∃ x, Op.bytesLess p.toList q.toList = x := ⟨_, rfl⟩
    have HR : Hid (lessE p c q d = x) := Lib.hid (by unfold lessE; rw [if_neg hpq]; exact hx)
    cases x
    all_goals
      go_enter Try.func95, Try.ntmps95
      go_wp2
      go_ret
      exact ⟨by rw [HR.out]; first | done | rfl, by repeat (first | assumption | exact Below.refl _ _ | refine bch ?_ (by assumption) | refine Below.alloc ?_ (by (try simp) <;> omega) _)⟩
end Go.Proofs.Ytbckncopdkmoeaa
