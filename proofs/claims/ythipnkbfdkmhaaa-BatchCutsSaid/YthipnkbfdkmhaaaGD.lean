/- Names and ends: which may be, walked in the program and in the document's own answer. A Writer of package wire that bears an error, or comes to bear one. A Writer of package wire: what was written, asked for as often as one likes, and with nothing written. States of ends: what they are in bytes, and what bytes read as. States of ends: which may be, in the program and in the document. ligref1.PutText: a text with its length before it. States of ends in bytes: Encode, in the program and in the document. States of ends out of bytes: Decode. -/
import Derived.Test.YthipnkbfdkmhaaaRows
import Derived.Test.YthipnkbfdkmhaaaGA
import Derived.WalkKit
import Derived.ProofKit
import Derived.Handy
import Derived.Below
import Derived.BigQuiet
import Derived.Lib.Hide
import Derived.IntWalk
import Derived.Outline
import Derived.WalkLawsBesides
import Derived.WalkSpells
import Derived.Test.YthipnkbfdkmhaaaGB
import Derived.BigRegion
import Derived.RegionTactic
import Derived.Test.YthipnkbfdkmhaaaGC
import Derived.Deep.Cut
import Derived.Deep.MidRow
namespace Go.Proofs.Ythipnkbfdkmhaaa
open Go.RowKit
attribute [local go_sem] strV

def letterB (n : Nat) : Bool := decide (97 ≤ n) && decide (n ≤ 122)
def digitB (n : Nat) : Bool := decide (48 ≤ n) && decide (n ≤ 57)
def nbB (n : Nat) : Bool := letterB n || digitB n || n == 45
def nbL (l : List UInt8) : Bool := l.all fun b => nbB b.toNat
def headB (l : List UInt8) : Bool := match l[0]? with | some b => letterB b.toNat | none => false
def nameP (l : List UInt8) : Bool := decide (1 ≤ l.length) && decide (l.length ≤ 12) && headB l && nbL l
theorem ne_int' {n m : Nat} (h : n ≠ m) : ((n : Int) == (m : Int)) = false := by rw [beq_eq_false_iff_ne]; omega
theorem nbL_take {l : List UInt8} {k : Nat} {b : UInt8} (h : l[k]? = some b) : nbL (l.take (k + 1)) = (nbL (l.take k) && nbB b.toNat) := by
  unfold nbL; rw [List.take_add_one, h, List.all_append]; simp
theorem nbL_stop {l : List UInt8} {k : Nat} {b : UInt8} (h : l[k]? = some b) (hb : nbB b.toNat = false) : nbL l = false := by
  unfold nbL; rw [List.all_eq_false]; exact ⟨b, List.mem_of_getElem? h, by rw [hb]; decide⟩
set_option maxRecDepth 100000 in
set_option maxHeartbeats 400000 in
theorem letter_n (n : Nat) (hn : n < 256) (w : World) :
    Calls Try.prog 130 #[.int .u8 n] w fun e w' => e = .returned (.bool (letterB n)) ∧ w' = w := by
  by_cases h1 : 97 ≤ n
  · by_cases h2 : n ≤ 122
    · have HR : Hid (letterB n = true) := Lib.hid (by unfold letterB; rw [decide_eq_true h1, decide_eq_true h2]; rfl)
      have d2 : decide ((n : Int) ≤ 122) = true := decide_eq_true (by omega)
      go_enter Try.func130, Try.ntmps130
      go_wp2
      go_ret
      exact ⟨by rw [HR.out]; first | done | rfl, by first | rfl | trivial⟩
    · have HR : Hid (letterB n = false) := Lib.hid (by unfold letterB; rw [decide_eq_false h2, Bool.and_false])
      have d2 : decide ((n : Int) ≤ 122) = false := decide_eq_false (by omega)
      go_enter Try.func130, Try.ntmps130
      go_wp2
      go_ret
      exact ⟨by rw [HR.out]; first | done | rfl, by first | rfl | trivial⟩
  · have HR : Hid (letterB n = false) := Lib.hid (by unfold letterB; rw [decide_eq_false h1]; rfl)
    have d1 : decide (97 ≤ (n : Int)) = false := decide_eq_false (by omega)
    go_enter Try.func130, Try.ntmps130
    go_wp2
    go_ret
    exact ⟨by rw [HR.out]; first | done | rfl, by first | rfl | trivial⟩
set_option maxRecDepth 100000 in
set_option maxHeartbeats 400000 in
theorem digit_n (n : Nat) (hn : n < 256) (w : World) :
    Calls Try.prog 131 #[.int .u8 n] w fun e w' => e = .returned (.bool (digitB n)) ∧ w' = w := by
  by_cases h1 : 48 ≤ n
  · by_cases h2 : n ≤ 57
    · have HR : Hid (digitB n = true) := Lib.hid (by unfold digitB; rw [decide_eq_true h1, decide_eq_true h2]; rfl)
      have d2 : decide ((n : Int) ≤ 57) = true := decide_eq_true (by omega)
      go_enter Try.func131, Try.ntmps131
      go_wp2
      go_ret
      exact ⟨by rw [HR.out]; first | done | rfl, by first | rfl | trivial⟩
    · have HR : Hid (digitB n = false) := Lib.hid (by unfold digitB; rw [decide_eq_false h2, Bool.and_false])
      have d2 : decide ((n : Int) ≤ 57) = false := decide_eq_false (by omega)
      go_enter Try.func131, Try.ntmps131
      go_wp2
      go_ret
      exact ⟨by rw [HR.out]; first | done | rfl, by first | rfl | trivial⟩
  · have HR : Hid (digitB n = false) := Lib.hid (by unfold digitB; rw [decide_eq_false h1]; rfl)
    have d1 : decide (48 ≤ (n : Int)) = false := decide_eq_false (by omega)
    go_enter Try.func131, Try.ntmps131
    go_wp2
    go_ret
    exact ⟨by rw [HR.out]; first | done | rfl, by first | rfl | trivial⟩

set_option maxRecDepth 100000 in
set_option maxHeartbeats 1600000 in
theorem name_any (s : ByteArray) (w : World) (hs : s.size ≤ maxLen) :
    Calls Try.prog 118 #[.string s] w fun e w' => e = .returned (.bool (nameP s.data.toList)) ∧ w' = w := by
  unfold maxLen at hs
  by_cases h0 : s.size = 0
  · have he := str_nil h0
    subst he
    go_enter Try.func118, Try.ntmps118
    go_wp2
    go_ret
    exact ⟨rfl, rfl⟩
  have hpos : 0 < s.size := by omega
  have hne := str_ne'' hpos
  have hne2 := str_ne' hpos
  by_cases h12 : 12 < s.size
  · have HR : Hid (nameP s.data.toList = false) := Lib.hid (by unfold nameP; rw [str_len, decide_eq_false (show ¬ s.size ≤ 12 by omega)]; simp)
    go_enter Try.func118, Try.ntmps118
    go_wp2
    go_ret
    exact ⟨by rw [HR.out]; first | done | rfl, by first | rfl | trivial⟩
  obtain ⟨b, hb⟩ : ∃ b, s[0] = b := ⟨_, rfl⟩
  have hg := str_get hpos
  rw [hb] at hg
  cases hl : letterB b.toNat
  · have HR : Hid (nameP s.data.toList = false) := Lib.hid (by unfold nameP headB; rw [hg]; simp [hl])
    have HL := Lib.hid hl; clear hl hg
    go_enter Try.func118, Try.ntmps118
    go_wp2_with (go_at_call 130; refine (letter_n _ (UInt8.toNat_lt b) _).mono ?_; rintro e w1 ⟨rfl, hw1⟩; obtain rfl : _ = w1 := hw1.symm; rw [HL.out])
    go_ret
    exact ⟨by rw [HR.out]; first | done | rfl, by first | rfl | trivial⟩
  have HR : Hid (nameP s.data.toList = nbL s.data.toList) := Lib.hid (by
    unfold nameP headB; rw [hg, str_len, decide_eq_true (show s.size ≤ 12 by omega), decide_eq_true (show 1 ≤ s.size by omega)]; simp [hl])
  have HL := Lib.hid hl; clear hl hg
  go_enter Try.func118, Try.ntmps118
  go_wp2_with (go_at_call 130; refine (letter_n _ (UInt8.toNat_lt b) _).mono ?_; rintro e w1 ⟨rfl, hw1⟩; obtain rfl : _ = w1 := hw1.symm; rw [HL.out])
  clear HL
  go_loopw [19, 3] (fun i v wr => ∃ k : Nat, k ≤ s.size ∧ wr = w ∧ Hid (nbL (s.data.toList.take k) = true) ∧ i = .int .i64 k) (fun i _ _ => s.size - (intOf i).toNat)
  case atStart => exact ⟨0, by omega, by first | rfl | trivial, Lib.hid rfl, rfl⟩
  case round =>
    obtain ⟨k, hk, rfl, HA, rfl⟩ := hrel
    by_cases hlt : k < s.size
    · obtain ⟨b, hb⟩ : ∃ b, s[k] = b := ⟨_, rfl⟩
      have hg := str_get hlt
      rw [hb] at hg
      have HG := Lib.hid hg; clear hg
      cases hl : letterB b.toNat
      · cases hd : digitB b.toNat
        · by_cases h45 : b.toNat = 45
          · have HS : Hid (nbL (s.data.toList.take (k + 1)) = true) := Lib.hid (by rw [nbL_take HG.out, HA.out]; unfold nbB; rw [hl, hd, h45]; rfl)
            have e45 : ((b.toNat : Int) == 45) = true := by rw [beq_iff_eq]; omega
            clear h45
            have HL := Lib.hid hl; have HD := Lib.hid hd; clear hl hd
            go_wp2_with (first | (go_at_call 130; refine (letter_n _ (UInt8.toNat_lt b) _).mono ?_; rintro e w1 ⟨rfl, hw1⟩; obtain rfl : _ = w1 := hw1.symm; rw [HL.out]) | (go_at_call 131; refine (digit_n _ (UInt8.toNat_lt b) _).mono ?_; rintro e w1 ⟨rfl, hw1⟩; obtain rfl : _ = w1 := hw1.symm; rw [HD.out]))
            go_roundw
            case rel => exact ⟨k + 1, by omega, by first | rfl | trivial, HS, by go_num⟩
            case measure => (simp [intOf]) <;> omega
          · have HS : Hid (nbL s.data.toList = false) := Lib.hid (nbL_stop HG.out (by unfold nbB; rw [hl, hd]; simp [h45]))
            have e45 : ((b.toNat : Int) == 45) = false := ne_int' h45
            have HL := Lib.hid hl; have HD := Lib.hid hd; clear hl hd
            go_wp2_with (first | (go_at_call 130; refine (letter_n _ (UInt8.toNat_lt b) _).mono ?_; rintro e w1 ⟨rfl, hw1⟩; obtain rfl : _ = w1 := hw1.symm; rw [HL.out]) | (go_at_call 131; refine (digit_n _ (UInt8.toNat_lt b) _).mono ?_; rintro e w1 ⟨rfl, hw1⟩; obtain rfl : _ = w1 := hw1.symm; rw [HD.out]))
            go_ret
            exact ⟨by rw [HR.out, HS.out]; first | done | rfl, by first | rfl | trivial⟩
        · have HS : Hid (nbL (s.data.toList.take (k + 1)) = true) := Lib.hid (by rw [nbL_take HG.out, HA.out]; unfold nbB; rw [hl, hd]; rfl)
          have HL := Lib.hid hl; have HD := Lib.hid hd; clear hl hd
          go_wp2_with (first | (go_at_call 130; refine (letter_n _ (UInt8.toNat_lt b) _).mono ?_; rintro e w1 ⟨rfl, hw1⟩; obtain rfl : _ = w1 := hw1.symm; rw [HL.out]) | (go_at_call 131; refine (digit_n _ (UInt8.toNat_lt b) _).mono ?_; rintro e w1 ⟨rfl, hw1⟩; obtain rfl : _ = w1 := hw1.symm; rw [HD.out]))
          go_roundw
          case rel => exact ⟨k + 1, by omega, by first | rfl | trivial, HS, by go_num⟩
          case measure => (simp [intOf]) <;> omega
      · have HS : Hid (nbL (s.data.toList.take (k + 1)) = true) := Lib.hid (by rw [nbL_take HG.out, HA.out]; unfold nbB; rw [hl]; rfl)
        have HL := Lib.hid hl; clear hl
        go_wp2_with (go_at_call 130; refine (letter_n _ (UInt8.toNat_lt b) _).mono ?_; rintro e w1 ⟨rfl, hw1⟩; obtain rfl : _ = w1 := hw1.symm; rw [HL.out])
        go_roundw
        case rel => exact ⟨k + 1, by omega, by first | rfl | trivial, HS, by go_num⟩
        case measure => (simp [intOf]) <;> omega
    · have HS : Hid (nbL s.data.toList = true) := Lib.hid (by have := HA.out; rwa [List.take_of_length_le (by rw [str_len]; omega)] at this)
      go_wp2
      go_ret
      exact ⟨by rw [HR.out, HS.out]; first | done | rfl, by first | rfl | trivial⟩

theorem nb_cases (n : Nat) : ((97 ≤ n ∧ n ≤ 122) ∨ (48 ≤ n ∧ n ≤ 57) ∨ n = 45) ∧ nbB n = true ∨
    (n < 48 ∨ (58 ≤ n ∧ n < 97) ∨ 123 ≤ n) ∧ n ≠ 45 ∧ nbB n = false := by
  unfold nbB letterB digitB
  by_cases h : (97 ≤ n ∧ n ≤ 122) ∨ (48 ≤ n ∧ n ≤ 57) ∨ n = 45
  · left; refine ⟨h, ?_⟩
    rcases h with h | h | h <;> simp [h]
  · right
    refine ⟨by omega, by omega, ?_⟩
    rw [Bool.eq_false_iff]; intro e
    simp only [Bool.or_eq_true, Bool.and_eq_true, decide_eq_true_eq, beq_iff_eq] at e
    omega

set_option maxRecDepth 100000 in
set_option maxHeartbeats 1600000 in
theorem refName_any (s : ByteArray) (w : World) (hs : s.size ≤ maxLen) :
    Calls Try.prog 125 #[.string s] w fun e w' => e = .returned (.bool (nameP s.data.toList)) ∧ w' = w := by
  unfold maxLen at hs
  by_cases h0 : s.size = 0
  · have he := str_nil h0
    subst he
    go_enter Try.func125, Try.ntmps125
    go_wp2
    go_ret
    exact ⟨rfl, rfl⟩
  have hpos : 0 < s.size := by omega
  by_cases h12 : 12 < s.size
  · have HR : Hid (nameP s.data.toList = false) := Lib.hid (by unfold nameP; rw [str_len, decide_eq_false (show ¬ s.size ≤ 12 by omega)]; simp)
    go_enter Try.func125, Try.ntmps125
    go_wp2
    go_ret
    exact ⟨by rw [HR.out]; first | done | rfl, by first | rfl | trivial⟩
  obtain ⟨b, hb⟩ : ∃ b, s[0] = b := ⟨_, rfl⟩
  have hg := str_get hpos
  rw [hb] at hg
  by_cases h97 : b.toNat < 97
  · have HR : Hid (nameP s.data.toList = false) := Lib.hid (by unfold nameP headB letterB; rw [hg]; simp only []; rw [decide_eq_false (show ¬ 97 ≤ b.toNat by omega)]; simp)
    clear hg
    have d1 : decide ((b.toNat : Int) < 97) = true := decide_eq_true (by omega)
    go_enter Try.func125, Try.ntmps125
    go_wp2
    go_ret
    exact ⟨by rw [HR.out]; first | done | rfl, by first | rfl | trivial⟩
  by_cases h122 : 122 < b.toNat
  · have HR : Hid (nameP s.data.toList = false) := Lib.hid (by unfold nameP headB letterB; rw [hg]; simp only []; rw [decide_eq_false (show ¬ b.toNat ≤ 122 by omega)]; simp)
    clear hg
    have d1 : decide ((b.toNat : Int) < 97) = false := decide_eq_false (by omega)
    have d2 : decide (122 < (b.toNat : Int)) = true := decide_eq_true (by omega)
    go_enter Try.func125, Try.ntmps125
    go_wp2
    go_ret
    exact ⟨by rw [HR.out]; first | done | rfl, by first | rfl | trivial⟩
  have HR : Hid (nameP s.data.toList = nbL s.data.toList) := Lib.hid (by
    unfold nameP headB letterB; rw [hg, str_len, decide_eq_true (show s.size ≤ 12 by omega), decide_eq_true (show 1 ≤ s.size by omega)]; simp only []
    rw [decide_eq_true (show 97 ≤ b.toNat by omega), decide_eq_true (show b.toNat ≤ 122 by omega)]; rfl)
  clear hg
  have d1 : decide ((b.toNat : Int) < 97) = false := decide_eq_false (by omega)
  have d2 : decide (122 < (b.toNat : Int)) = false := decide_eq_false (by omega)
  go_enter Try.func125, Try.ntmps125
  go_wp2
  clear d1 d2
  go_loopw [3, 4] (fun i v wr => ∃ k : Nat, k ≤ s.size ∧ wr = w ∧ Hid (nbL (s.data.toList.take k) = true) ∧ i = .int .i64 k) (fun i _ _ => s.size - (intOf i).toNat)
  case atStart => exact ⟨0, by omega, by first | rfl | trivial, Lib.hid rfl, rfl⟩
  case round =>
    clear h97 h122
    obtain ⟨k, hk, rfl, HA, rfl⟩ := hrel
    by_cases hlt : k < s.size
    · obtain ⟨b, hb⟩ : ∃ b, s[k] = b := ⟨_, rfl⟩
      have hg := str_get hlt
      rw [hb] at hg
      have HG := Lib.hid hg; clear hg
      have hb256 := UInt8.toNat_lt b
      rcases nb_cases b.toNat with ⟨h, hal⟩ | ⟨h, h45, hal⟩
      · have HS : Hid (nbL (s.data.toList.take (k + 1)) = true) := Lib.hid (by rw [nbL_take HG.out, HA.out, hal]; rfl)
        clear hal
        rcases h with ⟨ha, hc⟩ | ⟨ha, hc⟩ | hq
        · go_wp2
          go_roundw
          case rel => exact ⟨k + 1, by omega, by first | rfl | trivial, HS, by go_num⟩
          case measure => (simp [intOf]) <;> omega
        · go_wp2
          go_roundw
          case rel => exact ⟨k + 1, by omega, by first | rfl | trivial, HS, by go_num⟩
          case measure => (simp [intOf]) <;> omega
        · have hq' : (b.toNat : Int) = 45 := by omega
          go_wp2
          go_roundw
          case rel => exact ⟨k + 1, by omega, by first | rfl | trivial, HS, by go_num⟩
          case measure => (simp [intOf]) <;> omega
      · have HS : Hid (nbL s.data.toList = false) := Lib.hid (nbL_stop HG.out hal)
        clear hal
        have e3 : ((b.toNat : Int) == 45) = false := ne_int' h45
        rcases h with ha | ⟨ha, hc⟩ | ha
        · have d1 : decide (97 ≤ (b.toNat : Int)) = false := decide_eq_false (by omega)
          have d2 : decide (48 ≤ (b.toNat : Int)) = false := decide_eq_false (by omega)
          go_wp2
          go_ret
          exact ⟨by rw [HR.out, HS.out]; first | done | rfl, by first | rfl | trivial⟩
        · have d1 : decide (97 ≤ (b.toNat : Int)) = false := decide_eq_false (by omega)
          have d2 : decide (48 ≤ (b.toNat : Int)) = true := decide_eq_true (by omega)
          have d3 : decide ((b.toNat : Int) ≤ 57) = false := decide_eq_false (by omega)
          go_wp2
          go_ret
          exact ⟨by rw [HR.out, HS.out]; first | done | rfl, by first | rfl | trivial⟩
        · have d1 : decide (97 ≤ (b.toNat : Int)) = true := decide_eq_true (by omega)
          have d2 : decide ((b.toNat : Int) ≤ 122) = false := decide_eq_false (by omega)
          have d3 : decide ((b.toNat : Int) ≤ 57) = false := decide_eq_false (by omega)
          have d4 : decide (48 ≤ (b.toNat : Int)) = true := decide_eq_true (by omega)
          go_wp2
          go_ret
          exact ⟨by rw [HR.out, HS.out]; first | done | rfl, by first | rfl | trivial⟩
    · have HS : Hid (nbL s.data.toList = true) := Lib.hid (by have := HA.out; rwa [List.take_of_length_le (by rw [str_len]; omega)] at this)
      go_wp2
      go_ret
      exact ⟨by rw [HR.out, HS.out]; first | done | rfl, by first | rfl | trivial⟩

/-- Names, ends: the answers, by the arguments; nothing that simp looks into. -/
def nmB (s : ByteArray) : Bool := nameP s.data.toList
def mayE (p : ByteArray) (c : Int) : Bool := nmB p && decide (0 ≤ c) && decide (c ≤ 999)

set_option maxRecDepth 100000 in
set_option maxHeartbeats 1600000 in
theorem mayEnd_any (p : ByteArray) (c : Int) (w : World) (hp : p.size ≤ maxLen) :
    Calls Try.prog 98 #[.agg #[.string p, .int .i64 c]] w fun e w' => e = .returned (.bool (mayE p c)) ∧ Below w.heap.size w w' := by
  cases hn : nmB p
  · have HR : Hid (mayE p c = false) := Lib.hid (by unfold mayE; rw [hn]; rfl)
    go_enter Try.func98, Try.ntmps98
    go_wp2_with (go_at_call 118; refine (name_any p _ hp).mono ?_; rintro e w1 ⟨rfl, hw1⟩; obtain rfl : _ = w1 := hw1.symm; rw [show nameP p.data.toList = false from hn])
    go_ret
    exact ⟨by rw [HR.out]; first | done | rfl, by go_grown⟩
  · by_cases h0 : 0 ≤ c
    · by_cases h9 : c ≤ 999
      · have HR : Hid (mayE p c = true) := Lib.hid (by unfold mayE; rw [hn, decide_eq_true h0, decide_eq_true h9]; rfl)
        go_enter Try.func98, Try.ntmps98
        go_wp2_with (go_at_call 118; refine (name_any p _ hp).mono ?_; rintro e w1 ⟨rfl, hw1⟩; obtain rfl : _ = w1 := hw1.symm; rw [show nameP p.data.toList = true from hn])
        go_ret
        exact ⟨by rw [HR.out]; first | done | rfl, by go_grown⟩
      · have HR : Hid (mayE p c = false) := Lib.hid (by unfold mayE; rw [decide_eq_false h9, Bool.and_false])
        have d1 : decide (c ≤ 999) = false := decide_eq_false h9
        go_enter Try.func98, Try.ntmps98
        go_wp2_with (go_at_call 118; refine (name_any p _ hp).mono ?_; rintro e w1 ⟨rfl, hw1⟩; obtain rfl : _ = w1 := hw1.symm; rw [show nameP p.data.toList = true from hn])
        go_ret
        exact ⟨by rw [HR.out]; first | done | rfl, by go_grown⟩
    · have HR : Hid (mayE p c = false) := Lib.hid (by unfold mayE; rw [decide_eq_false h0, Bool.and_false]; rfl)
      have d1 : decide (0 ≤ c) = false := decide_eq_false h0
      go_enter Try.func98, Try.ntmps98
      go_wp2_with (go_at_call 118; refine (name_any p _ hp).mono ?_; rintro e w1 ⟨rfl, hw1⟩; obtain rfl : _ = w1 := hw1.symm; rw [show nameP p.data.toList = true from hn])
      go_ret
      exact ⟨by rw [HR.out]; first | done | rfl, by go_grown⟩

set_option maxRecDepth 100000 in
set_option maxHeartbeats 1600000 in
theorem refMayEnd_any (p : ByteArray) (c : Int) (w : World) (hp : p.size ≤ maxLen) :
    Calls Try.prog 109 #[.agg #[.string p, .int .i64 c]] w fun e w' => e = .returned (.bool (mayE p c)) ∧ Below w.heap.size w w' := by
  cases hn : nmB p
  · have HR : Hid (mayE p c = false) := Lib.hid (by unfold mayE; rw [hn]; rfl)
    go_enter Try.func109, Try.ntmps109
    go_wp2_with (go_at_call 125; refine (refName_any p _ hp).mono ?_; rintro e w1 ⟨rfl, hw1⟩; obtain rfl : _ = w1 := hw1.symm; rw [show nameP p.data.toList = false from hn])
    go_ret
    exact ⟨by rw [HR.out]; first | done | rfl, by go_grown⟩
  · by_cases h0 : 0 ≤ c
    · by_cases h9 : c ≤ 999
      · have HR : Hid (mayE p c = true) := Lib.hid (by unfold mayE; rw [hn, decide_eq_true h0, decide_eq_true h9]; rfl)
        go_enter Try.func109, Try.ntmps109
        go_wp2_with (go_at_call 125; refine (refName_any p _ hp).mono ?_; rintro e w1 ⟨rfl, hw1⟩; obtain rfl : _ = w1 := hw1.symm; rw [show nameP p.data.toList = true from hn])
        go_ret
        exact ⟨by rw [HR.out]; first | done | rfl, by go_grown⟩
      · have HR : Hid (mayE p c = false) := Lib.hid (by unfold mayE; rw [decide_eq_false h9, Bool.and_false])
        have d1 : decide (c ≤ 999) = false := decide_eq_false h9
        go_enter Try.func109, Try.ntmps109
        go_wp2_with (go_at_call 125; refine (refName_any p _ hp).mono ?_; rintro e w1 ⟨rfl, hw1⟩; obtain rfl : _ = w1 := hw1.symm; rw [show nameP p.data.toList = true from hn])
        go_ret
        exact ⟨by rw [HR.out]; first | done | rfl, by go_grown⟩
    · have HR : Hid (mayE p c = false) := Lib.hid (by unfold mayE; rw [decide_eq_false h0, Bool.and_false]; rfl)
      have d1 : decide (0 ≤ c) = false := decide_eq_false h0
      go_enter Try.func109, Try.ntmps109
      go_wp2_with (go_at_call 125; refine (refName_any p _ hp).mono ?_; rintro e w1 ⟨rfl, hw1⟩; obtain rfl : _ = w1 := hw1.symm; rw [show nameP p.data.toList = true from hn])
      go_ret
      exact ⟨by rw [HR.out]; first | done | rfl, by go_grown⟩
end Go.Proofs.Ythipnkbfdkmhaaa
namespace Go.Proofs.Ythipnkbfdkmhaaa
open Go.RowKit
attribute [local go_sem] strV
theorem WAt.fr {B b : Nat} {w : World} {l : List UInt8} {err : Int} (h : WAt B b w l err) (k : Nat) : w.frozen? ⟨b, k, none⟩ = false := by
  obtain ⟨hB, p, v, h1, _⟩ := h; exact frozen_heap h1 k
end Go.Proofs.Ythipnkbfdkmhaaa
namespace Go.Proofs.Ythipnkbfdkmhaaa
open Go.RowKit
attribute [local go_sem] strV
/-- Block b is a Writer that has written l and bears err, and may have been asked for it (its row may be frozen). -/
def WRd (B b : Nat) (w : World) (l : List UInt8) (err : Int) : Prop :=
  B ≤ b ∧ ∃ p v, w.heap[b]? = some (.cells #[p, v, .int .i64 err] 129 (0, 0)) ∧ v.ownBlock ≠ some b ∧
    ((v = .slice none 0 0 ∧ l = []) ∨ ∃ g cap cur fz, v = .slice (some ⟨g, 0, none⟩) l.length cap ∧ B ≤ g ∧ w.heap[g]? = some (.cells cur 5 fz) ∧ l.length ≤ cap ∧ cap ≤ maxLen ∧ cur.size = cap ∧ cur.toList.take l.length = l.map bv)
theorem WAt.rd {B b : Nat} {w : World} {l : List UInt8} {err : Int} (h : WAt B b w l err) : WRd B b w l err := by
  obtain ⟨hB, p, v, hb, hp, hown, hne⟩ := h
  refine ⟨hB, p, v, hb, hne, ?_⟩
  rcases hown.2 with ⟨rfl, hz⟩ | ⟨g, cap, cur, rfl, hbg, hg, hnc, hcm, hcs, htake⟩
  · exact .inl ⟨rfl, List.eq_nil_of_length_eq_zero hz⟩
  · exact .inr ⟨g, cap, cur, _, rfl, hbg, hg, hnc, hcm, by simpa using hcs, by simpa using htake⟩
theorem WRd.err {B b : Nat} {w : World} {l : List UInt8} {err : Int} (h : WRd B b w l err) : w.cell? ⟨b, 2, none⟩ = some (.int .i64 err) := by
  obtain ⟨hB, p, v, h1, _⟩ := h; exact cell_heap h1 2
theorem WRd.below {B b : Nat} {w w' : World} {l : List UInt8} {err : Int} (h : WRd B b w l err) (hb : Below w.heap.size w w') : WRd B b w' l err := by
  obtain ⟨hB, p, v, h1, hne, hr⟩ := h
  refine ⟨hB, p, v, by rw [hb.block b (Array.getElem?_eq_some_iff.1 h1).1]; exact h1, hne, ?_⟩
  rcases hr with h | ⟨g, cap, cur, fz, hv, hB, hg, r⟩
  · exact .inl h
  · exact .inr ⟨g, cap, cur, fz, hv, hB, by rw [hb.block g (Array.getElem?_eq_some_iff.1 hg).1]; exact hg, r⟩
theorem WRd.lt {B b : Nat} {w : World} {l : List UInt8} {err : Int} (h : WRd B b w l err) : b < w.heap.size := by
  obtain ⟨hB, p, v, h1, _⟩ := h; exact (Array.getElem?_eq_some_iff.1 h1).1
theorem freeze_heap {w : World} {g : Nat} {cur : Array Value} {e : TypeId} {fz : Nat × Nat} (h : w.heap[g]? = some (.cells cur e fz)) (n : Nat) : ∃ fz', (w.freeze ⟨g, 0, none⟩ n).heap[g]? = some (.cells cur e fz') := by
  obtain ⟨lo, hi⟩ := fz
  unfold World.freeze
  split
  · exact ⟨_, h⟩
  · refine ⟨if lo == hi then (0, 0 + n) else (min lo 0, max hi (0 + n)), ?_⟩
    simp only [Array.getElem?_modify, if_true, h]
    rfl
theorem freeze_other {w : World} {g k : Nat} (hne : k ≠ g) (n : Nat) : (w.freeze ⟨g, 0, none⟩ n).heap[k]? = w.heap[k]? := by
  unfold World.freeze
  split
  · rfl
  · simp [Array.getElem?_modify, Ne.symm hne]
set_option maxRecDepth 100000 in
set_option maxHeartbeats 1600000 in
theorem bstr_rd (B b : Nat) (w : World) (l : List UInt8) (err : Int) (h : WRd B b w l err) (hBw : B ≤ w.heap.size) :
    Calls Try.prog 97 #[.pointer (some ⟨b, 0, none⟩)] w fun e w' => e = .returned (.string ⟨l.toArray⟩) ∧ WRd B b w' l err ∧ Below B w w' := by
  have hkeep := h
  obtain ⟨hB, p, v, hbk, hne, hr⟩ := h
  rcases hr with ⟨rfl, rfl⟩ | ⟨g, cap, cur, fz, rfl, hbg, hg, hnc, hcm, hcs, htake⟩
  · have c1 : w.drew.cell? ⟨b, 1, none⟩ = some (.slice none 0 0) := cell_heap (w := w.drew) hbk 1
    have hSD : (Builtin.unsafeSliceData_ #[125] 152 #[.slice none 0 0]).run Try.prog w.drew = .ok (.pointer none) w.drew := Lib.run_unsafeSliceData_nil _ _ _ _ _
    have hUS : (Builtin.unsafeString_ #[152, 3] 9 #[.pointer none, .int .i64 0]).run Try.prog w.drew = .ok (.string .empty) w.drew := Lib.run_unsafeString_none _ _ _ _ _
    go_enter Try.func97, Try.ntmps97
    go_wp2
    go_region
    all_goals (go_wp2; go_ret; exact ⟨rfl, hkeep.below ((Below.refl _ _).drew), (Below.refl _ _).drew⟩)
  by_cases h0 : l = []
  · subst h0
    by_cases hc0 : cap = 0
    · subst hc0
      have c1 : w.drew.cell? ⟨b, 1, none⟩ = some (.slice (some ⟨g, 0, none⟩) 0 0) := cell_heap (w := w.drew) hbk 1
      have hgl := (Array.getElem?_eq_some_iff.1 hg).1
      have hbl := (Array.getElem?_eq_some_iff.1 hbk).1
      have c2 : (w.alloc (.view ⟨g, 0, none⟩ 5)).drew.cell? ⟨b, 1, none⟩ = some (.slice (some ⟨g, 0, none⟩) 0 0) := by
        refine cell_heap (w := (w.alloc (.view ⟨g, 0, none⟩ 5)).drew) (c := #[p, .slice (some ⟨g, 0, none⟩) 0 0, .int .i64 err]) (e := 129) ?_ 1
        show (w.heap.push _)[b]? = _
        rw [Array.getElem?_push_lt hbl, ← Array.getElem?_eq_getElem hbl]; exact hbk
      have hSD : (Builtin.unsafeSliceData_ #[125] 152 #[.slice (some ⟨g, 0, none⟩) 0 0]).run Try.prog w.drew = .ok (.pointer (some ⟨w.heap.size, 0, none⟩)) (w.drew.alloc (.view ⟨g, 0, none⟩ 5)) :=
        Lib.run_unsafeSliceData_zero _ _ _ 5 Try.underlying152 _ _ (5, cur.size) (by show World.shape? w g = _; unfold World.shape?; rw [hg])
      have hUS : ∀ W, (Builtin.unsafeString_ #[152, 3] 9 #[.pointer (some ⟨w.heap.size, 0, none⟩), .int .i64 0]).run Try.prog W = .ok (.string .empty) W := fun W => Lib.run_unsafeString_none _ _ _ _ _
      have hba : Below w.heap.size w (w.alloc (.view ⟨g, 0, none⟩ 5)).drew := ((Below.refl _ _).alloc (Nat.le_refl _) _).drew
      go_enter Try.func97, Try.ntmps97
      go_wp2
      go_region
      all_goals (go_wp2; go_ret; exact ⟨rfl, hkeep.below hba, hba.mono hBw⟩)
    · have c1 : w.drew.cell? ⟨b, 1, none⟩ = some (.slice (some ⟨g, 0, none⟩) 0 cap) := cell_heap (w := w.drew) hbk 1
      have hSD : (Builtin.unsafeSliceData_ #[125] 152 #[.slice (some ⟨g, 0, none⟩) 0 cap]).run Try.prog w.drew = .ok (.pointer (some ⟨g, 0, none⟩)) w.drew := Lib.run_unsafeSliceData_row _ _ _ _ _ _ hc0
      have hUS : (Builtin.unsafeString_ #[152, 3] 9 #[.pointer (some ⟨g, 0, none⟩), .int .i64 0]).run Try.prog w.drew = .ok (.string .empty) w.drew := Lib.run_unsafeString_none _ _ _ _ _
      go_enter Try.func97, Try.ntmps97
      go_wp2
      go_region
      all_goals (go_wp2; go_ret; exact ⟨rfl, hkeep.below ((Below.refl _ _).drew), (Below.refl _ _).drew⟩)
  have hl0 : l.length ≠ 0 := by simpa using h0
  have hne' : b ≠ g := fun e => hne (by simp [Value.ownBlock, e])
  have c1 : w.drew.cell? ⟨b, 1, none⟩ = some (.slice (some ⟨g, 0, none⟩) l.length cap) := cell_heap (w := w.drew) hbk 1
  have hSD : (Builtin.unsafeSliceData_ #[125] 152 #[.slice (some ⟨g, 0, none⟩) l.length cap]).run Try.prog w.drew = .ok (.pointer (some ⟨g, 0, none⟩)) w.drew :=
    Lib.run_unsafeSliceData_row _ _ _ _ _ _ (by omega)
  have hUS : (Builtin.unsafeString_ #[152, 3] 9 #[.pointer (some ⟨g, 0, none⟩), .int .i64 l.length]).run Try.prog w.drew = .ok (.string ⟨l.toArray⟩) (w.drew.freeze ⟨g, 0, none⟩ l.length) := by
    refine Lib.run_unsafeString_row w.drew 152 3 9 5 Try.underlying152 (by kernel_rfl) g cur.size (by have hg' : w.drew.heap[g]? = some (.cells cur 5 fz) := hg; simp [World.shape?, hg']) l h0 (by omega) (by unfold maxLen at hcm; omega) ?_
    intro j x hx
    have hadd : (⟨g, 0, none⟩ : Addr).add j = ⟨g, j, none⟩ := by unfold Addr.add; by_cases h : j = 0 <;> simp [h]
    have hjl : j < l.length := (List.getElem?_eq_some_iff.1 hx).1
    have e1 : cur.toList[j]? = some (bv x) := by
      have := congrArg (fun q : List Value => q[j]?) htake
      simp only [List.getElem?_take, hjl, if_true, List.getElem?_map, hx, Option.map_some] at this
      exact this
    rw [hadd]
    show World.cell? w ⟨g, j, none⟩ = _
    unfold World.cell?
    simp only [hg]
    simpa [bv] using e1
  obtain ⟨fz', hg'⟩ := freeze_heap (w := w.drew) (g := g) (cur := cur) (e := 5) (fz := fz) hg l.length
  have hb' : (w.drew.freeze ⟨g, 0, none⟩ l.length).heap[b]? = _ := (freeze_other (w := w.drew) hne' l.length).trans hbk
  have hend : WRd B b (w.drew.freeze ⟨g, 0, none⟩ l.length) l err := ⟨hB, p, _, hb', hne, .inr ⟨g, cap, cur, fz', rfl, hbg, hg', hnc, hcm, hcs, htake⟩⟩
  go_enter Try.func97, Try.ntmps97
  go_wp2
  go_region
  all_goals (go_wp2; go_ret; exact ⟨rfl, hend, Lib.below_freeze (Below.drew (Below.refl B w)) (p := ⟨g, 0, none⟩) hbg _⟩)
set_option maxRecDepth 100000 in
set_option maxHeartbeats 1600000 in
theorem wbytes_rd (B b : Nat) (w : World) (l : List UInt8) (h : WRd B b w l 0) (hBw : B ≤ w.heap.size) :
    Calls Try.prog 50 #[.pointer (some ⟨b, 0, none⟩)] w fun e w' => e = .returned (.tuple #[.string ⟨l.toArray⟩, .int .i64 0]) ∧ WRd B b w' l 0 ∧ Below B w w' := by
  have he := h.err
  go_enter Try.func50, Try.ntmps50
  go_wp2_with (go_at_call 97; refine (bstr_rd B b _ l 0 h hBw).mono ?_; rintro e w1 ⟨rfl, h1, hb1⟩)
  go_returns
  exact ⟨rfl, h1, hb1⟩
end Go.Proofs.Ythipnkbfdkmhaaa
namespace Go.Proofs.Ythipnkbfdkmhaaa
open Go.RowKit
/-- The values of a state: port, channel, ordered, closed, stop. -/
structure St where
  p : ByteArray
  c : Int
  o : Bool
  cl : Bool
  st : Int
def St.zero : St := ⟨⟨#[]⟩, 0, false, false, 0⟩
def St.val (s : St) : Value := .agg #[.string s.p, .int .i64 s.c, .bool s.o, .bool s.cl, .int .i64 s.st]
structure Five where
  n1 : Int
  n2 : Int
  t : ByteArray
  c : Int
  st : Int
  e : Int
def Five.state (f : Five) : St := ⟨f.t, f.c, f.n2 == 1, f.n1 == 1, f.st⟩
theorem mayE_bounds {p : ByteArray} {c : Int} (h : mayE p c = true) : p.size ≤ 12 ∧ 0 ≤ c ∧ c ≤ 999 := by
  unfold mayE nmB nameP at h
  simp only [Bool.and_eq_true, decide_eq_true_eq] at h
  rw [str_len] at h
  omega
end Go.Proofs.Ythipnkbfdkmhaaa
namespace Go.Proofs.Ythipnkbfdkmhaaa
open Go.RowKit
attribute [local go_sem] strV
end Go.Proofs.Ythipnkbfdkmhaaa
namespace Go.Proofs.Ythipnkbfdkmhaaa
open Go.RowKit
attribute [local go_sem] strV
theorem putL_len8 (v : Int) : (putL v).length ≤ 8 := by
  unfold putL
  split
  · exact grp_le _ _
  · simp
set_option maxRecDepth 100000 in
set_option maxHeartbeats 1600000 in
theorem refPutText_any (s : ByteArray) (w : World) (hs : s.size ≤ 1000000) :
    Calls Try.prog 63 #[.string s] w fun e w' => e = .returned (strV (putL (s.size : Int) ++ s.data.toList)) ∧ Below w.heap.size w w' := by
  have hv : strV (putL (s.size : Int) ++ s.data.toList) = .string (⟨(putL (s.size : Int)).toArray⟩ ++ s) := by
    unfold strV; congr 1
  have hcat : ¬ 9223372036854775807 < (putL (s.size : Int)).length + s.size := by have := putL_len8 (s.size : Int); omega
  rw [hv]
  go_enter Try.func63, Try.ntmps63
  go_wp2_with (go_at_call 60; refine (putNum_any _ _).mono ?_; rintro e w1 ⟨rfl, hb1⟩)
  go_ret
  exact ⟨rfl, hb1⟩
end Go.Proofs.Ythipnkbfdkmhaaa
namespace Go.Proofs.Ythipnkbfdkmhaaa
open Go.RowKit
attribute [local go_sem] strV
theorem cells_of {w : World} {g : Nat} {c : Array Value} {e : TypeId} (h : w.heap[g]? = some (.cells c e (0, 0))) {K : Nat} {w' : World} (hb : Below K w w') (hg : g < K) : w'.heap[g]? = some (.cells c e (0, 0)) := by
  rw [hb.block g hg]; exact h
theorem putL_len' (v : Int) : (putL v).length ≤ 8 := by
  unfold putL
  split
  · exact grp_le _ _
  · simp
end Go.Proofs.Ythipnkbfdkmhaaa
namespace Go.Proofs.Ythipnkbfdkmhaaa
open Go.RowKit
attribute [local go_sem] strV
theorem wp_nameE {P : Program} {c : Code} {Q : Exit → Act → World → Prop} {a : Act} (E : World) (h : ∀ W, W = E → c.wp P Q a W) : c.wp P Q a E := h E rfl
theorem RAt.put {b g k : Nat} {w : World} {s : ByteArray} {A E : Int} (h : RAt b w s A E) (hne : g ≠ b) (x : Value) : RAt b (w.setCell ⟨g, k, none⟩ x) s A E := by
  unfold RAt at h ⊢
  show (w.heap.modify g _)[b]? = _
  rw [Array.getElem?_modify, if_neg hne]; exact h
theorem row_put5 {w : World} {g k : Nat} {cur : Array Value} {t : TypeId} {v : Value} (h : w.heap[g]? = some (.cells cur t (0, 0))) : (w.setCell ⟨g, k, none⟩ v).heap[g]? = some (.cells (cur.setIfInBounds k v) t (0, 0)) := by
  show (w.heap.modify g _)[g]? = _
  rw [Array.getElem?_modify, if_pos rfl, h]; rfl
theorem row_oth {w : World} {g k b : Nat} {X : Obj} {v : Value} (h : w.heap[b]? = some X) (hne : g ≠ b) : (w.setCell ⟨g, k, none⟩ v).heap[b]? = some X := by
  show (w.heap.modify g _)[b]? = _
  rw [Array.getElem?_modify, if_neg hne]; exact h
theorem rangeAt_row5 {w : World} {b : Nat} {e : TypeId} {fz : Nat × Nat} {C : Array Value} (h : w.heap[b]? = some (.cells C e fz)) : w.rangeAt b 0 C.toList := fun j v hv => by
  unfold World.cell?; rw [h, Nat.zero_add]; simpa using hv
theorem St.row_one (p : ByteArray) (c : Int) (o cl : Bool) (st : Int) : (#[.string p, .int .i64 c, .bool o, .bool cl, .int .i64 st] : Array Value).all (·.oneCell') = true := by
  rw [Array.all_eq_true_iff_forall_mem]; intro v hv; simp at hv; rcases hv with rfl | rfl | rfl | rfl | rfl <;> rfl
end Go.Proofs.Ythipnkbfdkmhaaa
