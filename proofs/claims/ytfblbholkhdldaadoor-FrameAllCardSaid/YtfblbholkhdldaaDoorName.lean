/- Names and ends: which may be, walked in the program and in the document's own answer. -/
import Derived.Test.YtfblbholkhdldaaDoorRows
import Derived.Test.YtfblbholkhdldaaDoorStr
import Derived.Test.YtfblbholkhdldaaDoorKit
import Derived.WalkKit
import Derived.ProofKit
import Derived.Handy
import Derived.Below
import Derived.BigQuiet
import Derived.Lib.Hide
import Derived.IntWalk
import Derived.Outline
import Derived.WalkLawsBesides
import Derived.WalkSpells
namespace Go.Proofs.YtfblbholkhdldaaDoor
open Go.RowKit
attribute [local go_sem] strV

def letterB (n : Nat) : Bool := decide (97 ≤ n) && decide (n ≤ 122)
def digitB (n : Nat) : Bool := decide (48 ≤ n) && decide (n ≤ 57)
def nbB (n : Nat) : Bool := letterB n || digitB n || n == 45
def nbL (l : List UInt8) : Bool := l.all fun b => nbB b.toNat
def headB (l : List UInt8) : Bool := match l[0]? with | some b => letterB b.toNat | none => false
def nameP (l : List UInt8) : Bool := decide (1 ≤ l.length) && decide (l.length ≤ 12) && headB l && nbL l
theorem ne_int' {n m : Nat} (h : n ≠ m) : ((n : Int) == (m : Int)) = false := by rw [beq_eq_false_iff_ne]; omega
theorem nbL_take {l : List UInt8} {k : Nat} {b : UInt8} (h : l[k]? = some b) : nbL (l.take (k + 1)) = (nbL (l.take k) && nbB b.toNat) := by
  unfold nbL; rw [List.take_add_one, h, List.all_append]; simp
theorem nbL_stop {l : List UInt8} {k : Nat} {b : UInt8} (h : l[k]? = some b) (hb : nbB b.toNat = false) : nbL l = false := by
  unfold nbL; rw [List.all_eq_false]; exact ⟨b, List.mem_of_getElem? h, by rw [hb]; decide⟩
set_option maxRecDepth 100000 in
set_option maxHeartbeats 400000 in
theorem letter_n (n : Nat) (hn : n < 256) (w : World) :
    Calls Tryd.prog 107 #[.int .u8 n] w fun e w' => e = .returned (.bool (letterB n)) ∧ w' = w := by
  by_cases h1 : 97 ≤ n
  · by_cases h2 : n ≤ 122
    · have HR : Hid (letterB n = true) := Lib.hid (by unfold letterB; rw [decide_eq_true h1, decide_eq_true h2]; rfl)
      have d2 : decide ((n : Int) ≤ 122) = true := decide_eq_true (by omega)
      go_enter Tryd.func107, Tryd.ntmps107
      go_wp2
      go_ret
      exact ⟨by rw [HR.out]; first | done | rfl, by first | rfl | trivial⟩
    · have HR : Hid (letterB n = false) := Lib.hid (by unfold letterB; rw [decide_eq_false h2, Bool.and_false])
      have d2 : decide ((n : Int) ≤ 122) = false := decide_eq_false (by omega)
      go_enter Tryd.func107, Tryd.ntmps107
      go_wp2
      go_ret
      exact ⟨by rw [HR.out]; first | done | rfl, by first | rfl | trivial⟩
  · have HR : Hid (letterB n = false) := Lib.hid (by unfold letterB; rw [decide_eq_false h1]; rfl)
    have d1 : decide (97 ≤ (n : Int)) = false := decide_eq_false (by omega)
    go_enter Tryd.func107, Tryd.ntmps107
    go_wp2
    go_ret
    exact ⟨by rw [HR.out]; first | done | rfl, by first | rfl | trivial⟩
set_option maxRecDepth 100000 in
set_option maxHeartbeats 400000 in
theorem digit_n (n : Nat) (hn : n < 256) (w : World) :
    Calls Tryd.prog 108 #[.int .u8 n] w fun e w' => e = .returned (.bool (digitB n)) ∧ w' = w := by
  by_cases h1 : 48 ≤ n
  · by_cases h2 : n ≤ 57
    · have HR : Hid (digitB n = true) := Lib.hid (by unfold digitB; rw [decide_eq_true h1, decide_eq_true h2]; rfl)
      have d2 : decide ((n : Int) ≤ 57) = true := decide_eq_true (by omega)
      go_enter Tryd.func108, Tryd.ntmps108
      go_wp2
      go_ret
      exact ⟨by rw [HR.out]; first | done | rfl, by first | rfl | trivial⟩
    · have HR : Hid (digitB n = false) := Lib.hid (by unfold digitB; rw [decide_eq_false h2, Bool.and_false])
      have d2 : decide ((n : Int) ≤ 57) = false := decide_eq_false (by omega)
      go_enter Tryd.func108, Tryd.ntmps108
      go_wp2
      go_ret
      exact ⟨by rw [HR.out]; first | done | rfl, by first | rfl | trivial⟩
  · have HR : Hid (digitB n = false) := Lib.hid (by unfold digitB; rw [decide_eq_false h1]; rfl)
    have d1 : decide (48 ≤ (n : Int)) = false := decide_eq_false (by omega)
    go_enter Tryd.func108, Tryd.ntmps108
    go_wp2
    go_ret
    exact ⟨by rw [HR.out]; first | done | rfl, by first | rfl | trivial⟩

set_option maxRecDepth 100000 in
set_option maxHeartbeats 1600000 in
theorem name_any (s : ByteArray) (w : World) (hs : s.size ≤ maxLen) :
    Calls Tryd.prog 99 #[.string s] w fun e w' => e = .returned (.bool (nameP s.data.toList)) ∧ w' = w := by
  unfold maxLen at hs
  by_cases h0 : s.size = 0
  · have he := str_nil h0
    subst he
    go_enter Tryd.func99, Tryd.ntmps99
    go_wp2
    go_ret
    exact ⟨rfl, rfl⟩
  have hpos : 0 < s.size := by omega
  have hne := str_ne'' hpos
  have hne2 := str_ne' hpos
  by_cases h12 : 12 < s.size
  · have HR : Hid (nameP s.data.toList = false) := Lib.hid (by unfold nameP; rw [str_len, decide_eq_false (show ¬ s.size ≤ 12 by omega)]; simp)
    go_enter Tryd.func99, Tryd.ntmps99
    go_wp2
    go_ret
    exact ⟨by rw [HR.out]; first | done | rfl, by first | rfl | trivial⟩
  obtain ⟨b, hb⟩ : ∃ b, s[0] = b := ⟨_, rfl⟩
  have hg := str_get hpos
  rw [hb] at hg
  cases hl : letterB b.toNat
  · have HR : Hid (nameP s.data.toList = false) := Lib.hid (by unfold nameP headB; rw [hg]; simp [hl])
    have HL := Lib.hid hl; clear hl hg
    go_enter Tryd.func99, Tryd.ntmps99
    go_wp2_with (go_at_call 107; refine (letter_n _ (UInt8.toNat_lt b) _).mono ?_; rintro e w1 ⟨rfl, hw1⟩; obtain rfl : _ = w1 := hw1.symm; rw [HL.out])
    go_ret
    exact ⟨by rw [HR.out]; first | done | rfl, by first | rfl | trivial⟩
  have HR : Hid (nameP s.data.toList = nbL s.data.toList) := Lib.hid (by
    unfold nameP headB; rw [hg, str_len, decide_eq_true (show s.size ≤ 12 by omega), decide_eq_true (show 1 ≤ s.size by omega)]; simp [hl])
  have HL := Lib.hid hl; clear hl hg
  go_enter Tryd.func99, Tryd.ntmps99
  go_wp2_with (go_at_call 107; refine (letter_n _ (UInt8.toNat_lt b) _).mono ?_; rintro e w1 ⟨rfl, hw1⟩; obtain rfl : _ = w1 := hw1.symm; rw [HL.out])
  clear HL
  go_loopw [19, 3] (fun i v wr => ∃ k : Nat, k ≤ s.size ∧ wr = w ∧ Hid (nbL (s.data.toList.take k) = true) ∧ i = .int .i64 k) (fun i _ _ => s.size - (intOf i).toNat)
  case atStart => exact ⟨0, by omega, by first | rfl | trivial, Lib.hid rfl, rfl⟩
  case round =>
    obtain ⟨k, hk, rfl, HA, rfl⟩ := hrel
    by_cases hlt : k < s.size
    · obtain ⟨b, hb⟩ : ∃ b, s[k] = b := ⟨_, rfl⟩
      have hg := str_get hlt
      rw [hb] at hg
      have HG := Lib.hid hg; clear hg
      cases hl : letterB b.toNat
      · cases hd : digitB b.toNat
        · by_cases h45 : b.toNat = 45
          · have HS : Hid (nbL (s.data.toList.take (k + 1)) = true) := Lib.hid (by rw [nbL_take HG.out, HA.out]; unfold nbB; rw [hl, hd, h45]; rfl)
            have e45 : ((b.toNat : Int) == 45) = true := by rw [beq_iff_eq]; omega
            clear h45
            have HL := Lib.hid hl; have HD := Lib.hid hd; clear hl hd
            go_wp2_with (first | (go_at_call 107; refine (letter_n _ (UInt8.toNat_lt b) _).mono ?_; rintro e w1 ⟨rfl, hw1⟩; obtain rfl : _ = w1 := hw1.symm; rw [HL.out]) | (go_at_call 108; refine (digit_n _ (UInt8.toNat_lt b) _).mono ?_; rintro e w1 ⟨rfl, hw1⟩; obtain rfl : _ = w1 := hw1.symm; rw [HD.out]))
            go_roundw
            case rel => exact ⟨k + 1, by omega, by first | rfl | trivial, HS, by go_num⟩
            case measure => (simp [intOf]) <;> omega
          · have HS : Hid (nbL s.data.toList = false) := Lib.hid (nbL_stop HG.out (by unfold nbB; rw [hl, hd]; simp [h45]))
            have e45 : ((b.toNat : Int) == 45) = false := ne_int' h45
            have HL := Lib.hid hl; have HD := Lib.hid hd; clear hl hd
            go_wp2_with (first | (go_at_call 107; refine (letter_n _ (UInt8.toNat_lt b) _).mono ?_; rintro e w1 ⟨rfl, hw1⟩; obtain rfl : _ = w1 := hw1.symm; rw [HL.out]) | (go_at_call 108; refine (digit_n _ (UInt8.toNat_lt b) _).mono ?_; rintro e w1 ⟨rfl, hw1⟩; obtain rfl : _ = w1 := hw1.symm; rw [HD.out]))
            go_ret
            exact ⟨by rw [HR.out, HS.out]; first | done | rfl, by first | rfl | trivial⟩
        · have HS : Hid (nbL (s.data.toList.take (k + 1)) = true) := Lib.hid (by rw [nbL_take HG.out, HA.out]; unfold nbB; rw [hl, hd]; rfl)
          have HL := Lib.hid hl; have HD := Lib.hid hd; clear hl hd
          go_wp2_with (first | (go_at_call 107; refine (letter_n _ (UInt8.toNat_lt b) _).mono ?_; rintro e w1 ⟨rfl, hw1⟩; obtain rfl : _ = w1 := hw1.symm; rw [HL.out]) | (go_at_call 108; refine (digit_n _ (UInt8.toNat_lt b) _).mono ?_; rintro e w1 ⟨rfl, hw1⟩; obtain rfl : _ = w1 := hw1.symm; rw [HD.out]))
          go_roundw
          case rel => exact ⟨k + 1, by omega, by first | rfl | trivial, HS, by go_num⟩
          case measure => (simp [intOf]) <;> omega
      · have HS : Hid (nbL (s.data.toList.take (k + 1)) = true) := Lib.hid (by rw [nbL_take HG.out, HA.out]; unfold nbB; rw [hl]; rfl)
        have HL := Lib.hid hl; clear hl
        go_wp2_with (go_at_call 107; refine (letter_n _ (UInt8.toNat_lt b) _).mono ?_; rintro e w1 ⟨rfl, hw1⟩; obtain rfl : _ = w1 := hw1.symm; rw [HL.out])
        go_roundw
        case rel => exact ⟨k + 1, by omega, by first | rfl | trivial, HS, by go_num⟩
        case measure => (simp [intOf]) <;> omega
    · have HS : Hid (nbL s.data.toList = true) := Lib.hid (by have := HA.out; rwa [List.take_of_length_le (by rw [str_len]; omega)] at this)
      go_wp2
      go_ret
      exact ⟨by rw [HR.out, HS.out]; first | done | rfl, by first | rfl | trivial⟩

theorem nb_cases (n : Nat) : ((97 ≤ n ∧ n ≤ 122) ∨ (48 ≤ n ∧ n ≤ 57) ∨ n = 45) ∧ nbB n = true ∨
    (n < 48 ∨ (58 ≤ n ∧ n < 97) ∨ 123 ≤ n) ∧ n ≠ 45 ∧ nbB n = false := by
  unfold nbB letterB digitB
  by_cases h : (97 ≤ n ∧ n ≤ 122) ∨ (48 ≤ n ∧ n ≤ 57) ∨ n = 45
  · left; refine ⟨h, ?_⟩
    rcases h with h | h | h <;> simp [h]
  · right
    refine ⟨by omega, by omega, ?_⟩
    rw [Bool.eq_false_iff]; intro e
    simp only [Bool.or_eq_true, Bool.and_eq_true, decide_eq_true_eq, beq_iff_eq] at e
    omega

set_option maxRecDepth 100000 in
set_option maxHeartbeats 1600000 in
theorem refName_any (s : ByteArray) (w : World) (hs : s.size ≤ maxLen) :
    Calls Tryd.prog 87 #[.string s] w fun e w' => e = .returned (.bool (nameP s.data.toList)) ∧ w' = w := by
  unfold maxLen at hs
  by_cases h0 : s.size = 0
  · have he := str_nil h0
    subst he
    go_enter Tryd.func87, Tryd.ntmps87
    go_wp2
    go_ret
    exact ⟨rfl, rfl⟩
  have hpos : 0 < s.size := by omega
  by_cases h12 : 12 < s.size
  · have HR : Hid (nameP s.data.toList = false) := Lib.hid (by unfold nameP; rw [str_len, decide_eq_false (show ¬ s.size ≤ 12 by omega)]; simp)
    go_enter Tryd.func87, Tryd.ntmps87
    go_wp2
    go_ret
    exact ⟨by rw [HR.out]; first | done | rfl, by first | rfl | trivial⟩
  obtain ⟨b, hb⟩ : ∃ b, s[0] = b := ⟨_, rfl⟩
  have hg := str_get hpos
  rw [hb] at hg
  by_cases h97 : b.toNat < 97
  · have HR : Hid (nameP s.data.toList = false) := Lib.hid (by unfold nameP headB letterB; rw [hg]; simp only []; rw [decide_eq_false (show ¬ 97 ≤ b.toNat by omega)]; simp)
    clear hg
    have d1 : decide ((b.toNat : Int) < 97) = true := decide_eq_true (by omega)
    go_enter Tryd.func87, Tryd.ntmps87
    go_wp2
    go_ret
    exact ⟨by rw [HR.out]; first | done | rfl, by first | rfl | trivial⟩
  by_cases h122 : 122 < b.toNat
  · have HR : Hid (nameP s.data.toList = false) := Lib.hid (by unfold nameP headB letterB; rw [hg]; simp only []; rw [decide_eq_false (show ¬ b.toNat ≤ 122 by omega)]; simp)
    clear hg
    have d1 : decide ((b.toNat : Int) < 97) = false := decide_eq_false (by omega)
    have d2 : decide (122 < (b.toNat : Int)) = true := decide_eq_true (by omega)
    go_enter Tryd.func87, Tryd.ntmps87
    go_wp2
    go_ret
    exact ⟨by rw [HR.out]; first | done | rfl, by first | rfl | trivial⟩
  have HR : Hid (nameP s.data.toList = nbL s.data.toList) := Lib.hid (by
    unfold nameP headB letterB; rw [hg, str_len, decide_eq_true (show s.size ≤ 12 by omega), decide_eq_true (show 1 ≤ s.size by omega)]; simp only []
    rw [decide_eq_true (show 97 ≤ b.toNat by omega), decide_eq_true (show b.toNat ≤ 122 by omega)]; rfl)
  clear hg
  have d1 : decide ((b.toNat : Int) < 97) = false := decide_eq_false (by omega)
  have d2 : decide (122 < (b.toNat : Int)) = false := decide_eq_false (by omega)
  go_enter Tryd.func87, Tryd.ntmps87
  go_wp2
  clear d1 d2
  go_loopw [3, 4] (fun i v wr => ∃ k : Nat, k ≤ s.size ∧ wr = w ∧ Hid (nbL (s.data.toList.take k) = true) ∧ i = .int .i64 k) (fun i _ _ => s.size - (intOf i).toNat)
  case atStart => exact ⟨0, by omega, by first | rfl | trivial, Lib.hid rfl, rfl⟩
  case round =>
    clear h97 h122
    obtain ⟨k, hk, rfl, HA, rfl⟩ := hrel
    by_cases hlt : k < s.size
    · obtain ⟨b, hb⟩ : ∃ b, s[k] = b := ⟨_, rfl⟩
      have hg := str_get hlt
      rw [hb] at hg
      have HG := Lib.hid hg; clear hg
      have hb256 := UInt8.toNat_lt b
      rcases nb_cases b.toNat with ⟨h, hal⟩ | ⟨h, h45, hal⟩
      · have HS : Hid (nbL (s.data.toList.take (k + 1)) = true) := Lib.hid (by rw [nbL_take HG.out, HA.out, hal]; rfl)
        clear hal
        rcases h with ⟨ha, hc⟩ | ⟨ha, hc⟩ | hq
        · go_wp2
          go_roundw
          case rel => exact ⟨k + 1, by omega, by first | rfl | trivial, HS, by go_num⟩
          case measure => (simp [intOf]) <;> omega
        · go_wp2
          go_roundw
          case rel => exact ⟨k + 1, by omega, by first | rfl | trivial, HS, by go_num⟩
          case measure => (simp [intOf]) <;> omega
        · have hq' : (b.toNat : Int) = 45 := by omega
          go_wp2
          go_roundw
          case rel => exact ⟨k + 1, by omega, by first | rfl | trivial, HS, by go_num⟩
          case measure => (simp [intOf]) <;> omega
      · have HS : Hid (nbL s.data.toList = false) := Lib.hid (nbL_stop HG.out hal)
        clear hal
        have e3 : ((b.toNat : Int) == 45) = false := ne_int' h45
        rcases h with ha | ⟨ha, hc⟩ | ha
        · have d1 : decide (97 ≤ (b.toNat : Int)) = false := decide_eq_false (by omega)
          have d2 : decide (48 ≤ (b.toNat : Int)) = false := decide_eq_false (by omega)
          go_wp2
          go_ret
          exact ⟨by rw [HR.out, HS.out]; first | done | rfl, by first | rfl | trivial⟩
        · have d1 : decide (97 ≤ (b.toNat : Int)) = false := decide_eq_false (by omega)
          have d2 : decide (48 ≤ (b.toNat : Int)) = true := decide_eq_true (by omega)
          have d3 : decide ((b.toNat : Int) ≤ 57) = false := decide_eq_false (by omega)
          go_wp2
          go_ret
          exact ⟨by rw [HR.out, HS.out]; first | done | rfl, by first | rfl | trivial⟩
        · have d1 : decide (97 ≤ (b.toNat : Int)) = true := decide_eq_true (by omega)
          have d2 : decide ((b.toNat : Int) ≤ 122) = false := decide_eq_false (by omega)
          have d3 : decide ((b.toNat : Int) ≤ 57) = false := decide_eq_false (by omega)
          have d4 : decide (48 ≤ (b.toNat : Int)) = true := decide_eq_true (by omega)
          go_wp2
          go_ret
          exact ⟨by rw [HR.out, HS.out]; first | done | rfl, by first | rfl | trivial⟩
    · have HS : Hid (nbL s.data.toList = true) := Lib.hid (by have := HA.out; rwa [List.take_of_length_le (by rw [str_len]; omega)] at this)
      go_wp2
      go_ret
      exact ⟨by rw [HR.out, HS.out]; first | done | rfl, by first | rfl | trivial⟩

/-- Names, ends: the answers, by the arguments; nothing that simp looks into. -/
def nmB (s : ByteArray) : Bool := nameP s.data.toList
def mayE (p : ByteArray) (c : Int) : Bool := nmB p && decide (0 ≤ c) && decide (c ≤ 999)

set_option maxRecDepth 100000 in
set_option maxHeartbeats 1600000 in
theorem mayEnd_any (p : ByteArray) (c : Int) (w : World) (hp : p.size ≤ maxLen) :
    Calls Tryd.prog 74 #[.agg #[.string p, .int .i64 c]] w fun e w' => e = .returned (.bool (mayE p c)) ∧ Below w.heap.size w w' := by
  cases hn : nmB p
  · have HR : Hid (mayE p c = false) := Lib.hid (by unfold mayE; rw [hn]; rfl)
    go_enter Tryd.func74, Tryd.ntmps74
    go_wp2_with (go_at_call 99; refine (name_any p _ hp).mono ?_; rintro e w1 ⟨rfl, hw1⟩; obtain rfl : _ = w1 := hw1.symm; rw [show nameP p.data.toList = false from hn])
    go_ret
    exact ⟨by rw [HR.out]; first | done | rfl, by go_grown⟩
  · by_cases h0 : 0 ≤ c
    · by_cases h9 : c ≤ 999
      · have HR : Hid (mayE p c = true) := Lib.hid (by unfold mayE; rw [hn, decide_eq_true h0, decide_eq_true h9]; rfl)
        go_enter Tryd.func74, Tryd.ntmps74
        go_wp2_with (go_at_call 99; refine (name_any p _ hp).mono ?_; rintro e w1 ⟨rfl, hw1⟩; obtain rfl : _ = w1 := hw1.symm; rw [show nameP p.data.toList = true from hn])
        go_ret
        exact ⟨by rw [HR.out]; first | done | rfl, by go_grown⟩
      · have HR : Hid (mayE p c = false) := Lib.hid (by unfold mayE; rw [decide_eq_false h9, Bool.and_false])
        have d1 : decide (c ≤ 999) = false := decide_eq_false h9
        go_enter Tryd.func74, Tryd.ntmps74
        go_wp2_with (go_at_call 99; refine (name_any p _ hp).mono ?_; rintro e w1 ⟨rfl, hw1⟩; obtain rfl : _ = w1 := hw1.symm; rw [show nameP p.data.toList = true from hn])
        go_ret
        exact ⟨by rw [HR.out]; first | done | rfl, by go_grown⟩
    · have HR : Hid (mayE p c = false) := Lib.hid (by unfold mayE; rw [decide_eq_false h0, Bool.and_false]; rfl)
      have d1 : decide (0 ≤ c) = false := decide_eq_false h0
      go_enter Tryd.func74, Tryd.ntmps74
      go_wp2_with (go_at_call 99; refine (name_any p _ hp).mono ?_; rintro e w1 ⟨rfl, hw1⟩; obtain rfl : _ = w1 := hw1.symm; rw [show nameP p.data.toList = true from hn])
      go_ret
      exact ⟨by rw [HR.out]; first | done | rfl, by go_grown⟩

set_option maxRecDepth 100000 in
set_option maxHeartbeats 1600000 in
theorem refMayEnd_any (p : ByteArray) (c : Int) (w : World) (hp : p.size ≤ maxLen) :
    Calls Tryd.prog 64 #[.agg #[.string p, .int .i64 c]] w fun e w' => e = .returned (.bool (mayE p c)) ∧ Below w.heap.size w w' := by
  cases hn : nmB p
  · have HR : Hid (mayE p c = false) := Lib.hid (by unfold mayE; rw [hn]; rfl)
    go_enter Tryd.func64, Tryd.ntmps64
    go_wp2_with (go_at_call 87; refine (refName_any p _ hp).mono ?_; rintro e w1 ⟨rfl, hw1⟩; obtain rfl : _ = w1 := hw1.symm; rw [show nameP p.data.toList = false from hn])
    go_ret
    exact ⟨by rw [HR.out]; first | done | rfl, by go_grown⟩
  · by_cases h0 : 0 ≤ c
    · by_cases h9 : c ≤ 999
      · have HR : Hid (mayE p c = true) := Lib.hid (by unfold mayE; rw [hn, decide_eq_true h0, decide_eq_true h9]; rfl)
        go_enter Tryd.func64, Tryd.ntmps64
        go_wp2_with (go_at_call 87; refine (refName_any p _ hp).mono ?_; rintro e w1 ⟨rfl, hw1⟩; obtain rfl : _ = w1 := hw1.symm; rw [show nameP p.data.toList = true from hn])
        go_ret
        exact ⟨by rw [HR.out]; first | done | rfl, by go_grown⟩
      · have HR : Hid (mayE p c = false) := Lib.hid (by unfold mayE; rw [decide_eq_false h9, Bool.and_false])
        have d1 : decide (c ≤ 999) = false := decide_eq_false h9
        go_enter Tryd.func64, Tryd.ntmps64
        go_wp2_with (go_at_call 87; refine (refName_any p _ hp).mono ?_; rintro e w1 ⟨rfl, hw1⟩; obtain rfl : _ = w1 := hw1.symm; rw [show nameP p.data.toList = true from hn])
        go_ret
        exact ⟨by rw [HR.out]; first | done | rfl, by go_grown⟩
    · have HR : Hid (mayE p c = false) := Lib.hid (by unfold mayE; rw [decide_eq_false h0, Bool.and_false]; rfl)
      have d1 : decide (0 ≤ c) = false := decide_eq_false h0
      go_enter Tryd.func64, Tryd.ntmps64
      go_wp2_with (go_at_call 87; refine (refName_any p _ hp).mono ?_; rintro e w1 ⟨rfl, hw1⟩; obtain rfl : _ = w1 := hw1.symm; rw [show nameP p.data.toList = true from hn])
      go_ret
      exact ⟨by rw [HR.out]; first | done | rfl, by go_grown⟩
end Go.Proofs.YtfblbholkhdldaaDoor
