/- Names and ends: which may be, walked in the program and in the document's own answer. A Writer of package wire that bears an error, or comes to bear one. A Writer of package wire: what was written, asked for as often as one likes, and with nothing written. States of ends: what they are in bytes, and what bytes read as. States of ends: which may be, in the program and in the document. ligref1.PutText: a text with its length before it. States of ends in bytes: Encode, in the program and in the document. States of ends out of bytes: Decode. -/
import Derived.Test.YthipnkbfdkmhaaaRows
import Derived.Test.YthipnkbfdkmhaaaGA
import Derived.WalkKit
import Derived.ProofKit
import Derived.Handy
import Derived.Below
import Derived.BigQuiet
import Derived.Lib.Hide
import Derived.IntWalk
import Derived.Outline
import Derived.WalkLawsBesides
import Derived.WalkSpells
import Derived.Test.YthipnkbfdkmhaaaGB
import Derived.BigRegion
import Derived.RegionTactic
import Derived.Test.YthipnkbfdkmhaaaGC
import Derived.Deep.Cut
import Derived.Deep.MidRow
namespace Go.Proofs.Ythipnkbfdkmhaaa
open Go.RowKit
attribute [local go_sem] strV

def letterB (n : Nat) : Bool := decide (97 ≤ n) && decide (n ≤ 122)
def digitB (n : Nat) : Bool := decide (48 ≤ n) && decide (n ≤ 57)
def nbB (n : Nat) : Bool := letterB n || digitB n || n == 45
def nbL (l : List UInt8) : Bool := l.all fun b => nbB b.toNat
def headB (l : List UInt8) : Bool := match l[0]? with | some b => letterB b.toNat | none => false
def nameP (l : List UInt8) : Bool := decide (1 ≤ l.length) && decide (l.length ≤ 12) && headB l && nbL l
theorem ne_int' {n m : Nat} (h : n ≠ m) : ((n : Int) == (m : Int)) = false := by rw [beq_eq_false_iff_ne]; omega
theorem nbL_take {l : List UInt8} {k : Nat} {b : UInt8} (h : l[k]? = some b) : nbL (l.take (k + 1)) = (nbL (l.take k) && nbB b.toNat) := by
  unfold nbL; rw [List.take_add_one, h, List.all_append]; simp
theorem nbL_stop {l : List UInt8} {k : Nat} {b : UInt8} (h : l[k]? = some b) (hb : nbB b.toNat = false) : nbL l = false := by
  unfold nbL; rw [List.all_eq_false]; exact ⟨b, List.mem_of_getElem? h, by rw [hb]; decide⟩
set_option maxRecDepth 100000 in
set_option maxHeartbeats 400000 in
theorem letter_n (n : Nat) (hn : n < 256) (w : World) :
    Calls Try.prog 130 #[.int .u8 n] w fun e w' => e = .returned (.bool (letterB n)) ∧ w' = w := by
  by_cases h1 : 97 ≤ n
  · by_cases h2 : n ≤ 122
    · have HR : Hid (letterB n = true) := Lib.hid (by unfold letterB; rw [decide_eq_true h1, decide_eq_true h2]; rfl)
      have d2 : decide ((n : Int) ≤ 122) = true := decide_eq_true (by omega)
      go_enter Try.func130, Try.ntmps130
      go_wp2
      go_ret
      exact ⟨by rw [HR.out]; first | done | rfl, by first | rfl | trivial⟩
    · have HR : Hid (letterB n = false) := Lib.hid (by unfold letterB; rw [decide_eq_false h2, Bool.and_false])
      have d2 : decide ((n : Int) ≤ 122) = false := decide_eq_false (by omega)
      go_enter Try.func130, Try.ntmps130
      go_wp2
      go_ret
      exact ⟨by rw [HR.out]; first | done | rfl, by first | rfl | trivial⟩
  · have HR : Hid (letterB n = false) := Lib.hid (by unfold letterB; rw [decide_eq_false h1]; rfl)
    have d1 : decide (97 ≤ (n : Int)) = false := decide_eq_false (by omega)
    go_enter Try.func130, Try.ntmps130
    go_wp2
    go_ret
    exact ⟨by rw [HR.out]; first | done | rfl, by first | rfl | trivial⟩
set_option maxRecDepth 100000 in
set_option maxHeartbeats 400000 in
theorem digit_n (n : Nat) (hn : n < 256) (w : World) :
    Calls Try.prog 131 #[.int .u8 n] w fun e w' => e = .returned (.bool (digitB n)) ∧ w' = w := by
  by_cases h1 : 48 ≤ n
  · by_cases h2 : n ≤ 57
    · have HR : Hid (digitB n = true) := Lib.hid (by unfold digitB; rw [decide_eq_true h1, decide_eq_true h2]; rfl)
      have d2 : decide ((n : Int) ≤ 57) = true := decide_eq_true (by omega)
      go_enter Try.func131, Try.ntmps131
      go_wp2
      go_ret
      exact ⟨by rw [HR.out]; first | done | rfl, by first | rfl | trivial⟩
    · have HR : Hid (digitB n = false) := Lib.hid (by unfold digitB; rw [decide_eq_false h2, Bool.and_false])
      have d2 : decide ((n : Int) ≤ 57) = false := decide_eq_false (by omega)
      go_enter Try.func131, Try.ntmps131
      go_wp2
      go_ret
      exact ⟨by rw [HR.out]; first | done | rfl, by first | rfl | trivial⟩
  · have HR : Hid (digitB n = false) := Lib.hid (by unfold digitB; rw [decide_eq_false h1]; rfl)
    have d1 : decide (48 ≤ (n : Int)) = false := decide_eq_false (by omega)
    go_enter Try.func131, Try.ntmps131
    go_wp2
    go_ret
    exact ⟨by rw [HR.out]; first | done | rfl, by first | rfl | trivial⟩

set_option maxRecDepth 100000 in
set_option maxHeartbeats 1600000 in
theorem name_any (s : ByteArray) (w : World) (hs : s.size ≤ maxLen) :
    Calls Try.prog 118 #[.string s] w fun e w' => e = .returned (.bool (nameP s.data.toList)) ∧ w' = w := by
  unfold maxLen at hs
  by_cases h0 : s.size = 0
  · have he := str_nil h0
    subst he
    go_enter Try.func118, Try.ntmps118
    go_wp2
    go_ret
    exact ⟨rfl, rfl⟩
  have hpos : 0 < s.size := by omega
  have hne := str_ne'' hpos
  have hne2 := str_ne' hpos
  by_cases h12 : 12 < s.size
  · have HR : Hid (nameP s.data.toList = false) := Lib.hid (by unfold nameP; rw [str_len, decide_eq_false (show ¬ s.size ≤ 12 by omega)]; simp)
    go_enter Try.func118, Try.ntmps118
    go_wp2
    go_ret
    exact ⟨by rw [HR.out]; first | done | rfl, by first | rfl | trivial⟩
  obtain ⟨b, hb⟩ : ∃ b, s[0] = b := ⟨_, rfl⟩
  have hg := str_get hpos
  rw [hb] at hg
  cases hl : letterB b.toNat
  · have HR : Hid (nameP s.data.toList = false) := Lib.hid (by unfold nameP headB; rw [hg]; simp [hl])
    have HL := Lib.hid hl; clear hl hg
    go_enter Try.func118, Try.ntmps118
    go_wp2_with (go_at_call 130; refine (letter_n _ (UInt8.toNat_lt b) _).mono ?_; rintro e w1 ⟨rfl, hw1⟩; obtain rfl : _ = w1 := hw1.symm; rw [HL.out])
    go_ret
    exact ⟨by rw [HR.out]; first | done | rfl, by first | rfl | trivial⟩
  have HR : Hid (nameP s.data.toList = nbL s.data.toList) := Lib.hid (by
    unfold nameP headB; rw [hg, str_len, decide_eq_true (show s.size ≤ 12 by omega), decide_eq_true (show 1 ≤ s.size by omega)]; simp [hl])
  have HL := Lib.hid hl; clear hl hg
  go_enter Try.func118, Try.ntmps118
  go_wp2_with (go_at_call 130; refine (letter_n _ (UInt8.toNat_lt b) _).mono ?_; rintro e w1 ⟨rfl, hw1⟩; obtain rfl : _ = w1 := hw1.symm; rw [HL.out])
  clear HL
  go_loopw [19, 3] (fun i v wr => ∃ k : Nat, k ≤ s.size ∧ wr = w ∧ Hid (nbL (s.data.toList.take k) = true) ∧ i = .int .i64 k) (fun i _ _ => s.size - (intOf i).toNat)
  case atStart => exact ⟨0, by omega, by first | rfl | trivial, Lib.hid rfl, rfl⟩
  case round =>
    obtain ⟨k, hk, rfl, HA, rfl⟩ := hrel
    by_cases hlt : k < s.size
    · obtain ⟨b, hb⟩ : ∃ b, s[k] = b := ⟨_, rfl⟩
      have hg := str_get hlt
      rw [hb] at hg
      have HG := Lib.hid hg; clear hg
      cases hl : letterB b.toNat
      · cases hd : digitB b.toNat
        · by_cases h45 : b.toNat = 45
          · have HS : Hid (nbL (s.data.toList.take (k + 1)) = true) := Lib.hid (by rw [nbL_take HG.out, HA.out]; unfold nbB; rw [hl, hd, h45]; rfl)
            have e45 : ((b.toNat : Int) == 45) = true := by rw [beq_iff_eq]; omega
            clear h45
            have HL := Lib.hid hl; have HD := Lib.hid hd; clear hl hd
            go_wp2_with (first | (go_at_call 130; refine (letter_n _ (UInt8.toNat_lt b) _).mono ?_; rintro e w1 ⟨rfl, hw1⟩; obtain rfl : _ = w1 := hw1.symm; rw [HL.out]) | (go_at_call 131; refine (digit_n _ (UInt8.toNat_lt b) _).mono ?_; rintro e w1 ⟨rfl, hw1⟩; obtain rfl : _ = w1 := hw1.symm; rw [HD.out]))
            go_roundw
            case rel => exact ⟨k + 1, by omega, by first | rfl | trivial, HS, by go_num⟩
            case measure => (simp [intOf]) <;> omega
          · have HS : Hid (nbL s.data.toList = false) := Lib.hid (nbL_stop HG.out (by unfold nbB; rw [hl, hd]; simp [h45]))
            have e45 : ((b.toNat : Int) == 45) = false := ne_int' h45
            have HL := Lib.hid hl; have HD := Lib.hid hd; clear hl hd
            go_wp2_with (first | (go_at_call 130; refine (letter_n _ (UInt8.toNat_lt b) _).mono ?_; rintro e w1 ⟨rfl, hw1⟩; obtain rfl : _ = w1 := hw1.symm; rw [HL.out]) | (go_at_call 131; refine (digit_n _ (UInt8.toNat_lt b) _).mono ?_; rintro e w1 ⟨rfl, hw1⟩; obtain rfl : _ = w1 := hw1.symm; rw [HD.out]))
            go_ret
            exact ⟨by rw [HR.out, HS.out]; first | done | rfl, by first | rfl | trivial⟩
        · have HS : Hid (nbL (s.data.toList.take (k + 1)) = true) := Lib.hid (by rw [nbL_take HG.out, HA.out]; unfold nbB; rw [hl, hd]; rfl)
          have HL := Lib.hid hl; have HD := Lib.hid hd; clear hl hd
          go_wp2_with (first | (go_at_call 130; refine (letter_n _ (UInt8.toNat_lt b) _).mono ?_; rintro e w1 ⟨rfl, hw1⟩; obtain rfl : _ = w1 := hw1.symm; rw [HL.out]) | (go_at_call 131; refine (digit_n _ (UInt8.toNat_lt b) _).mono ?_; rintro e w1 ⟨rfl, hw1⟩; obtain rfl : _ = w1 := hw1.symm; rw [HD.out]))
          go_roundw
          case rel => exact ⟨k + 1, by omega, by first | rfl | trivial, HS, by go_num⟩
          case measure => (simp [intOf]) <;> omega
      · have HS : Hid (nbL (s.data.toList.take (k + 1)) = true) := Lib.hid (by rw [nbL_take HG.out, HA.out]; unfold nbB; rw [hl]; rfl)
        have HL := Lib.hid hl; clear hl
        go_wp2_with (go_at_call 130; refine (letter_n _ (UInt8.toNat_lt b) _).mono ?_; rintro e w1 ⟨rfl, hw1⟩; obtain rfl : _ = w1 := hw1.symm; rw [HL.out])
        go_roundw
        case rel => exact ⟨k + 1, by omega, by first | rfl | trivial, HS, by go_num⟩
        case measure => (simp [intOf]) <;> omega
    · have HS : Hid (nbL s.data.toList = true) := Lib.hid (by have := HA.out; rwa [List.take_of_length_le (by rw [str_len]; omega)] at this)
      go_wp2
      go_ret
      exact ⟨by rw [HR.out, HS.out]; first | done | rfl, by first | rfl | trivial⟩

theorem nb_cases (n : Nat) : ((97 ≤ n ∧ n ≤ 122) ∨ (48 ≤ n ∧ n ≤ 57) ∨ n = 45) ∧ nbB n = true ∨
    (n < 48 ∨ (58 ≤ n ∧ n < 97) ∨ 123 ≤ n) ∧ n ≠ 45 ∧ nbB n = false := by
  unfold nbB letterB digitB
  by_cases h : (97 ≤ n ∧ n ≤ 122) ∨ (48 ≤ n ∧ n ≤ 57) ∨ n = 45
  · left; refine ⟨h, ?_⟩
    rcases h with h | h | h <;> simp [h]
  · right
    refine ⟨by omega, by omega, ?_⟩
    rw [Bool.eq_false_iff]; intro e
    simp only [Bool.or_eq_true, Bool.and_eq_true, decide_eq_true_eq, beq_iff_eq] at e
    omega

set_option maxRecDepth 100000 in
set_option maxHeartbeats 1600000 in
theorem refName_any (s : ByteArray) (w : World) (hs : s.size ≤ maxLen) :
    Calls Try.prog 125 #[.string s] w fun e w' => e = .returned (.bool (nameP s.data.toList)) ∧ w' = w := by
  unfold maxLen at hs
  by_cases h0 : s.size = 0
  · have he := str_nil h0
    subst he
    go_enter Try.func125, Try.ntmps125
    go_wp2
    go_ret
    exact ⟨rfl, rfl⟩
  have hpos : 0 < s.size := by omega
  by_cases h12 : 12 < s.size
  · have HR : Hid (nameP s.data.toList = false) := Lib.hid (by unfold nameP; rw [str_len, decide_eq_false (show ¬ s.size ≤ 12 by omega)]; simp)
    go_enter Try.func125, Try.ntmps125
    go_wp2
    go_ret
    exact ⟨by rw [HR.out]; first | done | rfl, by first | rfl | trivial⟩
  obtain ⟨b, hb⟩ : ∃ b, s[0] = b := ⟨_, rfl⟩
  have hg := str_get hpos
  rw [hb] at hg
  by_cases h97 : b.toNat < 97
  · have HR : Hid (nameP s.data.toList = false) := Lib.hid (by unfold nameP headB letterB; rw [hg]; simp only []; rw [decide_eq_false (show ¬ 97 ≤ b.toNat by omega)]; simp)
    clear hg
    have d1 : decide ((b.toNat : Int) < 97) = true := decide_eq_true (by omega)
    go_enter Try.func125, Try.ntmps125
    go_wp2
    go_ret
    exact ⟨by rw [HR.out]; first | done | rfl, by first | rfl | trivial⟩
  by_cases h122 : 122 < b.toNat
  · have HR : Hid (nameP s.data.toList = false) := Lib.hid (by unfold nameP headB letterB; rw [hg]; simp only []; rw [decide_eq_false (show ¬ b.toNat ≤ 122 by omega)]; simp)
    clear hg
    have d1 : decide ((b.toNat : Int) < 97) = false := decide_eq_false (by omega)
    have d2 : decide (122 < (b.toNat : Int)) = true := decide_eq_true (by omega)
    go_enter Try.func125, Try.ntmps125
    go_wp2
    go_ret
    exact ⟨by rw [HR.out]; first | done | rfl, by first | rfl | trivial⟩
  have HR : Hid (nameP s.data.toList = nbL s.data.toList) := Lib.hid (by
    unfold nameP headB letterB; rw [hg, str_len, decide_eq_true (show s.size ≤ 12 by omega), decide_eq_true (show 1 ≤ s.size by omega)]; simp only []
    rw [decide_eq_true (show 97 ≤ b.toNat by omega), decide_eq_true (show b.toNat ≤ 122 by omega)]; rfl)
  clear hg
  have d1 : decide ((b.toNat : Int) < 97) = false := decide_eq_false (by omega)
  have d2 : decide (122 < (b.toNat : Int)) = false := decide_eq_false (by omega)
  go_enter Try.func125, Try.ntmps125
  go_wp2
  clear d1 d2
  go_loopw [3, 4] (fun i v wr => ∃ k : Nat, k ≤ s.size ∧ wr = w ∧ Hid (nbL (s.data.toList.take k) = true) ∧ i = .int .i64 k) (fun i _ _ => s.size - (intOf i).toNat)
  case atStart => exact ⟨0, by omega, by first | rfl | trivial, Lib.hid rfl, rfl⟩
  case round =>
    clear h97 h122
    obtain ⟨k, hk, rfl, HA, rfl⟩ := hrel
    by_cases hlt : k < s.size
    · obtain ⟨b, hb⟩ : ∃ b, s[k] = b := ⟨_, rfl⟩
      have hg := str_get hlt
      rw [hb] at hg
      have HG := Lib.hid hg; clear hg
      have hb256 := UInt8.toNat_lt b
      rcases nb_cases b.toNat with ⟨h, hal⟩ | ⟨h, h45, hal⟩
      · have HS : Hid (nbL (s.data.toList.take (k + 1)) = true) := Lib.hid (by rw [nbL_take HG.out, HA.out, hal]; rfl)
        clear hal
        rcases h with ⟨ha, hc⟩ | ⟨ha, hc⟩ | hq
        · go_wp2
          go_roundw
          case rel => exact ⟨k + 1, by omega, by first | rfl | trivial, HS, by go_num⟩
          case measure => (simp [intOf]) <;> omega
        · go_wp2
          go_roundw
          case rel => exact ⟨k + 1, by omega, by first | rfl | trivial, HS, by go_num⟩
          case measure => (simp [intOf]) <;> omega
        · have hq' : (b.toNat : Int) = 45 := by omega
          go_wp2
          go_roundw
          case rel => exact ⟨k + 1, by omega, by first | rfl | trivial, HS, by go_num⟩
          case measure => (simp [intOf]) <;> omega
      · have HS : Hid (nbL s.data.toList = false) := Lib.hid (nbL_stop HG.out hal)
        clear hal
        have e3 : ((b.toNat : Int) == 45) = false := ne_int' h45
        rcases h with ha | ⟨ha, hc⟩ | ha
        · have d1 : decide (97 ≤ (b.toNat : Int)) = false := decide_eq_false (by omega)
          have d2 : decide (48 ≤ (b.toNat : Int)) = false := decide_eq_false (by omega)
          go_wp2
          go_ret
          exact ⟨by rw [HR.out, HS.out]; first | done | rfl, by first | rfl | trivial⟩
        · have d1 : decide (97 ≤ (b.toNat : Int)) = false := decide_eq_false (by omega)
          have d2 : decide (48 ≤ (b.toNat : Int)) = true := decide_eq_true (by omega)
          have d3 : decide ((b.toNat : Int) ≤ 57) = false := decide_eq_false (by omega)
          go_wp2
          go_ret
          exact ⟨by rw [HR.out, HS.out]; first | done | rfl, by first | rfl | trivial⟩
        · have d1 : decide (97 ≤ (b.toNat : Int)) = true := decide_eq_true (by omega)
          have d2 : decide ((b.toNat : Int) ≤ 122) = false := decide_eq_false (by omega)
          have d3 : decide ((b.toNat : Int) ≤ 57) = false := decide_eq_false (by omega)
          have d4 : decide (48 ≤ (b.toNat : Int)) = true := decide_eq_true (by omega)
          go_wp2
          go_ret
          exact ⟨by rw [HR.out, HS.out]; first | done | rfl, by first | rfl | trivial⟩
    · have HS : Hid (nbL s.data.toList = true) := Lib.hid (by have := HA.out; rwa [List.take_of_length_le (by rw [str_len]; omega)] at this)
      go_wp2
      go_ret
      exact ⟨by rw [HR.out, HS.out]; first | done | rfl, by first | rfl | trivial⟩

/-- Names, ends: the answers, by the arguments; nothing that simp looks into. -/
def nmB (s : ByteArray) : Bool := nameP s.data.toList
def mayE (p : ByteArray) (c : Int) : Bool := nmB p && decide (0 ≤ c) && decide (c ≤ 999)

set_option maxRecDepth 100000 in
set_option maxHeartbeats 1600000 in
theorem mayEnd_any (p : ByteArray) (c : Int) (w : World) (hp : p.size ≤ maxLen) :
    Calls Try.prog 98 #[.agg #[.string p, .int .i64 c]] w fun e w' => e = .returned (.bool (mayE p c)) ∧ Below w.heap.size w w' := by
  cases hn : nmB p
  · have HR : Hid (mayE p c = false) := Lib.hid (by unfold mayE; rw [hn]; rfl)
    go_enter Try.func98, Try.ntmps98
    go_wp2_with (go_at_call 118; refine (name_any p _ hp).mono ?_; rintro e w1 ⟨rfl, hw1⟩; obtain rfl : _ = w1 := hw1.symm; rw [show nameP p.data.toList = false from hn])
    go_ret
    exact ⟨by rw [HR.out]; first | done | rfl, by go_grown⟩
  · by_cases h0 : 0 ≤ c
    · by_cases h9 : c ≤ 999
      · have HR : Hid (mayE p c = true) := Lib.hid (by unfold mayE; rw [hn, decide_eq_true h0, decide_eq_true h9]; rfl)
        go_enter Try.func98, Try.ntmps98
        go_wp2_with (go_at_call 118; refine (name_any p _ hp).mono ?_; rintro e w1 ⟨rfl, hw1⟩; obtain rfl : _ = w1 := hw1.symm; rw [show nameP p.data.toList = true from hn])
        go_ret
        exact ⟨by rw [HR.out]; first | done | rfl, by go_grown⟩
      · have HR : Hid (mayE p c = false) := Lib.hid (by unfold mayE; rw [decide_eq_false h9, Bool.and_false])
        have d1 : decide (c ≤ 999) = false := decide_eq_false h9
        go_enter Try.func98, Try.ntmps98
        go_wp2_with (go_at_call 118; refine (name_any p _ hp).mono ?_; rintro e w1 ⟨rfl, hw1⟩; obtain rfl : _ = w1 := hw1.symm; rw [show nameP p.data.toList = true from hn])
        go_ret
        exact ⟨by rw [HR.out]; first | done | rfl, by go_grown⟩
    · have HR : Hid (mayE p c = false) := Lib.hid (by unfold mayE; rw [decide_eq_false h0, Bool.and_false]; rfl)
      have d1 : decide (0 ≤ c) = false := decide_eq_false h0
      go_enter Try.func98, Try.ntmps98
      go_wp2_with (go_at_call 118; refine (name_any p _ hp).mono ?_; rintro e w1 ⟨rfl, hw1⟩; obtain rfl : _ = w1 := hw1.symm; rw [show nameP p.data.toList = true from hn])
      go_ret
      exact ⟨by rw [HR.out]; first | done | rfl, by go_grown⟩

set_option maxRecDepth 100000 in
set_option maxHeartbeats 1600000 in
theorem refMayEnd_any (p : ByteArray) (c : Int) (w : World) (hp : p.size ≤ maxLen) :
    Calls Try.prog 109 #[.agg #[.string p, .int .i64 c]] w fun e w' => e = .returned (.bool (mayE p c)) ∧ Below w.heap.size w w' := by
  cases hn : nmB p
  · have HR : Hid (mayE p c = false) := Lib.hid (by unfold mayE; rw [hn]; rfl)
    go_enter Try.func109, Try.ntmps109
    go_wp2_with (go_at_call 125; refine (refName_any p _ hp).mono ?_; rintro e w1 ⟨rfl, hw1⟩; obtain rfl : _ = w1 := hw1.symm; rw [show nameP p.data.toList = false from hn])
    go_ret
    exact ⟨by rw [HR.out]; first | done | rfl, by go_grown⟩
  · by_cases h0 : 0 ≤ c
    · by_cases h9 : c ≤ 999
      · have HR : Hid (mayE p c = true) := Lib.hid (by unfold mayE; rw [hn, decide_eq_true h0, decide_eq_true h9]; rfl)
        go_enter Try.func109, Try.ntmps109
        go_wp2_with (go_at_call 125; refine (refName_any p _ hp).mono ?_; rintro e w1 ⟨rfl, hw1⟩; obtain rfl : _ = w1 := hw1.symm; rw [show nameP p.data.toList = true from hn])
        go_ret
        exact ⟨by rw [HR.out]; first | done | rfl, by go_grown⟩
      · have HR : Hid (mayE p c = false) := Lib.hid (by unfold mayE; rw [decide_eq_false h9, Bool.and_false])
        have d1 : decide (c ≤ 999) = false := decide_eq_false h9
        go_enter Try.func109, Try.ntmps109
        go_wp2_with (go_at_call 125; refine (refName_any p _ hp).mono ?_; rintro e w1 ⟨rfl, hw1⟩; obtain rfl : _ = w1 := hw1.symm; rw [show nameP p.data.toList = true from hn])
        go_ret
        exact ⟨by rw [HR.out]; first | done | rfl, by go_grown⟩
    · have HR : Hid (mayE p c = false) := Lib.hid (by unfold mayE; rw [decide_eq_false h0, Bool.and_false]; rfl)
      have d1 : decide (0 ≤ c) = false := decide_eq_false h0
      go_enter Try.func109, Try.ntmps109
      go_wp2_with (go_at_call 125; refine (refName_any p _ hp).mono ?_; rintro e w1 ⟨rfl, hw1⟩; obtain rfl : _ = w1 := hw1.symm; rw [show nameP p.data.toList = true from hn])
      go_ret
      exact ⟨by rw [HR.out]; first | done | rfl, by go_grown⟩
end Go.Proofs.Ythipnkbfdkmhaaa
namespace Go.Proofs.Ythipnkbfdkmhaaa
open Go.RowKit
attribute [local go_sem] strV
theorem WAt.fr {B b : Nat} {w : World} {l : List UInt8} {err : Int} (h : WAt B b w l err) (k : Nat) : w.frozen? ⟨b, k, none⟩ = false := by
  obtain ⟨hB, p, v, h1, _⟩ := h; exact frozen_heap h1 k
theorem WAt.setErr {B b : Nat} {w : World} {l : List UInt8} {err : Int} (h : WAt B b w l err) (x : Int) : WAt B b (w.setCell ⟨b, 2, none⟩ (.int .i64 x)) l x := by
  obtain ⟨hB, p, v, h1, hp, hown, hne⟩ := h
  refine ⟨hB, p, v, ?_, hp, ownsRow_setCell_other hown (a := ⟨b, 2, none⟩) hne _, hne⟩
  simp [World.setCell, Array.getElem?_modify, h1]
set_option maxRecDepth 100000 in
set_option maxHeartbeats 1600000 in
theorem wadd_err (B b : Nat) (w : World) (l : List UInt8) (err : Int) (s : ByteArray) (h : WAt B b w l err) (he : (err == 0) = false) :
    Calls Try.prog 114 #[.pointer (some ⟨b, 0, none⟩), .string s] w fun e w' => e = .returned (.tuple #[]) ∧ w' = w := by
  have c2 := h.err
  go_enter Try.func114, Try.ntmps114
  go_wp2
  go_returns
  exact ⟨rfl, by first | rfl | trivial⟩
set_option maxRecDepth 100000 in
set_option maxHeartbeats 1600000 in
theorem wnum_err (B b : Nat) (w : World) (l : List UInt8) (err v : Int) (h : WAt B b w l err) (he : (err == 0) = false) :
    Calls Try.prog 76 #[.pointer (some ⟨b, 0, none⟩), .int .i64 v] w fun e w' => e = .returned (.tuple #[]) ∧ WAt B b w' l err ∧ Below w.heap.size w w' := by
  have c2 := h.err
  have hlt := h.lt
  obtain ⟨q, hsv⟩ : ∃ q : ByteArray, strV (putL v) = .string q := ⟨_, rfl⟩
  obtain ⟨x, hx⟩ : ∃ x, (q.toList == []) = x := ⟨_, rfl⟩
  cases x
  all_goals
    go_enter Try.func76, Try.ntmps76
    go_wp2_with (first | (go_at_call 113; refine (put_any _ _).mono ?_; rintro e w1 ⟨rfl, hb1⟩; rw [hsv]; have h1 := h.below hb1; have d2 := h1.err) | (go_at_call 114; refine (wadd_err B b _ l err q h1 he).mono ?_; rintro e w2 ⟨rfl, hw2⟩; obtain rfl : _ = w2 := hw2.symm))
    go_returns
    exact ⟨rfl, h1, hb1⟩
set_option maxRecDepth 100000 in
set_option maxHeartbeats 1600000 in
theorem wnum_bad (B b : Nat) (w : World) (l : List UInt8) (v : Int) (h : WAt B b w l 0) (hB : B ≤ w.heap.size) (hv : encB v = false) :
    Calls Try.prog 76 #[.pointer (some ⟨b, 0, none⟩), .int .i64 v] w fun e w' => e = .returned (.tuple #[]) ∧ WAt B b w' l 1 ∧ Below B w w' := by
  have hsv : strV (putL v) = .string ⟨#[]⟩ := by unfold putL; rw [hv]; rfl
  have hBb : B ≤ b := h.1
  go_enter Try.func76, Try.ntmps76
  go_wp2_with (first | (go_at_call 113; refine (put_any _ _).mono ?_; rintro e w1 ⟨rfl, hb1⟩; rw [hsv]; have h1 := h.below hb1; have d2 := h1.err; have e2 := h1.fr 2) | (go_at_call 114; refine (wadd_err B b _ l 1 _ (h1.setErr 1) rfl).mono ?_; rintro e w2 ⟨rfl, hw2⟩; obtain rfl : _ = w2 := hw2.symm))
  go_returns
  exact ⟨rfl, h1.setErr 1, (hb1.mono hB).setCell (p := ⟨b, 2, none⟩) hBb _⟩
set_option maxRecDepth 100000 in
set_option maxHeartbeats 1600000 in
theorem wtext_err (B b : Nat) (w : World) (l : List UInt8) (err : Int) (s : ByteArray) (h : WAt B b w l err) (he : (err == 0) = false) (hs : s.size ≤ maxLen) :
    Calls Try.prog 77 #[.pointer (some ⟨b, 0, none⟩), .string s] w fun e w' => e = .returned (.tuple #[]) ∧ WAt B b w' l err ∧ Below w.heap.size w w' := by
  have _ := hs
  go_enter Try.func77, Try.ntmps77
  go_wp2_with (first | (go_at_call 76; refine (wnum_err B b _ l err _ h he).mono ?_; rintro e w1 ⟨rfl, h1, hb1⟩) | (go_at_call 114; refine (wadd_err B b _ l err s h1 he).mono ?_; rintro e w2 ⟨rfl, hw2⟩; obtain rfl : _ = w2 := hw2.symm))
  go_returns
  exact ⟨rfl, h1, hb1⟩
set_option maxRecDepth 100000 in
set_option maxHeartbeats 1600000 in
theorem wbytes_err (B b : Nat) (w : World) (l : List UInt8) (err : Int) (h : WAt B b w l err) (he : (err == 0) = false) :
    Calls Try.prog 50 #[.pointer (some ⟨b, 0, none⟩)] w fun e w' => e = .returned (.tuple #[.string ⟨#[]⟩, .int .i64 err]) ∧ Below w.heap.size w w' := by
  have c2 := h.err
  go_enter Try.func50, Try.ntmps50
  go_wp2
  go_quiet (fail)
  go_wp2
  go_returns
  exact ⟨rfl, drewN_below _ _⟩
end Go.Proofs.Ythipnkbfdkmhaaa
namespace Go.Proofs.Ythipnkbfdkmhaaa
open Go.RowKit
attribute [local go_sem] strV
/-- Block b is a Writer that has written l and bears err, and may have been asked for it (its row may be frozen). -/
def WRd (B b : Nat) (w : World) (l : List UInt8) (err : Int) : Prop :=
  B ≤ b ∧ ∃ p v, w.heap[b]? = some (.cells #[p, v, .int .i64 err] 129 (0, 0)) ∧ v.ownBlock ≠ some b ∧
    ((v = .slice none 0 0 ∧ l = []) ∨ ∃ g cap cur fz, v = .slice (some ⟨g, 0, none⟩) l.length cap ∧ B ≤ g ∧ w.heap[g]? = some (.cells cur 5 fz) ∧ l.length ≤ cap ∧ cap ≤ maxLen ∧ cur.size = cap ∧ cur.toList.take l.length = l.map bv)
theorem WAt.rd {B b : Nat} {w : World} {l : List UInt8} {err : Int} (h : WAt B b w l err) : WRd B b w l err := by
  obtain ⟨hB, p, v, hb, hp, hown, hne⟩ := h
  refine ⟨hB, p, v, hb, hne, ?_⟩
  rcases hown.2 with ⟨rfl, hz⟩ | ⟨g, cap, cur, rfl, hbg, hg, hnc, hcm, hcs, htake⟩
  · exact .inl ⟨rfl, List.eq_nil_of_length_eq_zero hz⟩
  · exact .inr ⟨g, cap, cur, _, rfl, hbg, hg, hnc, hcm, by simpa using hcs, by simpa using htake⟩
theorem WRd.err {B b : Nat} {w : World} {l : List UInt8} {err : Int} (h : WRd B b w l err) : w.cell? ⟨b, 2, none⟩ = some (.int .i64 err) := by
  obtain ⟨hB, p, v, h1, _⟩ := h; exact cell_heap h1 2
theorem WRd.below {B b : Nat} {w w' : World} {l : List UInt8} {err : Int} (h : WRd B b w l err) (hb : Below w.heap.size w w') : WRd B b w' l err := by
  obtain ⟨hB, p, v, h1, hne, hr⟩ := h
  refine ⟨hB, p, v, by rw [hb.block b (Array.getElem?_eq_some_iff.1 h1).1]; exact h1, hne, ?_⟩
  rcases hr with h | ⟨g, cap, cur, fz, hv, hB, hg, r⟩
  · exact .inl h
  · exact .inr ⟨g, cap, cur, fz, hv, hB, by rw [hb.block g (Array.getElem?_eq_some_iff.1 hg).1]; exact hg, r⟩
theorem WRd.lt {B b : Nat} {w : World} {l : List UInt8} {err : Int} (h : WRd B b w l err) : b < w.heap.size := by
  obtain ⟨hB, p, v, h1, _⟩ := h; exact (Array.getElem?_eq_some_iff.1 h1).1
theorem freeze_heap {w : World} {g : Nat} {cur : Array Value} {e : TypeId} {fz : Nat × Nat} (h : w.heap[g]? = some (.cells cur e fz)) (n : Nat) : ∃ fz', (w.freeze ⟨g, 0, none⟩ n).heap[g]? = some (.cells cur e fz') := by
  obtain ⟨lo, hi⟩ := fz
  unfold World.freeze
  split
  · exact ⟨_, h⟩
  · refine ⟨if lo == hi then (0, 0 + n) else (min lo 0, max hi (0 + n)), ?_⟩
    simp only [Array.getElem?_modify, if_true, h]
    rfl
theorem freeze_other {w : World} {g k : Nat} (hne : k ≠ g) (n : Nat) : (w.freeze ⟨g, 0, none⟩ n).heap[k]? = w.heap[k]? := by
  unfold World.freeze
  split
  · rfl
  · simp [Array.getElem?_modify, Ne.symm hne]
set_option maxRecDepth 100000 in
set_option maxHeartbeats 1600000 in
theorem bstr_rd (B b : Nat) (w : World) (l : List UInt8) (err : Int) (h : WRd B b w l err) (hBw : B ≤ w.heap.size) :
    Calls Try.prog 97 #[.pointer (some ⟨b, 0, none⟩)] w fun e w' => e = .returned (.string ⟨l.toArray⟩) ∧ WRd B b w' l err ∧ Below B w w' := by
  have hkeep := h
  obtain ⟨hB, p, v, hbk, hne, hr⟩ := h
  rcases hr with ⟨rfl, rfl⟩ | ⟨g, cap, cur, fz, rfl, hbg, hg, hnc, hcm, hcs, htake⟩
  · have c1 : w.drew.cell? ⟨b, 1, none⟩ = some (.slice none 0 0) := cell_heap (w := w.drew) hbk 1
    have hSD : (Builtin.unsafeSliceData_ #[125] 152 #[.slice none 0 0]).run Try.prog w.drew = .ok (.pointer none) w.drew := Lib.run_unsafeSliceData_nil _ _ _ _ _
    have hUS : (Builtin.unsafeString_ #[152, 3] 9 #[.pointer none, .int .i64 0]).run Try.prog w.drew = .ok (.string .empty) w.drew := Lib.run_unsafeString_none _ _ _ _ _
    go_enter Try.func97, Try.ntmps97
    go_wp2
    go_region
    all_goals (go_wp2; go_ret; exact ⟨rfl, hkeep.below ((Below.refl _ _).drew), (Below.refl _ _).drew⟩)
  by_cases h0 : l = []
  · subst h0
    by_cases hc0 : cap = 0
    · subst hc0
      have c1 : w.drew.cell? ⟨b, 1, none⟩ = some (.slice (some ⟨g, 0, none⟩) 0 0) := cell_heap (w := w.drew) hbk 1
      have hgl := (Array.getElem?_eq_some_iff.1 hg).1
      have hbl := (Array.getElem?_eq_some_iff.1 hbk).1
      have c2 : (w.alloc (.view ⟨g, 0, none⟩ 5)).drew.cell? ⟨b, 1, none⟩ = some (.slice (some ⟨g, 0, none⟩) 0 0) := by
        refine cell_heap (w := (w.alloc (.view ⟨g, 0, none⟩ 5)).drew) (c := #[p, .slice (some ⟨g, 0, none⟩) 0 0, .int .i64 err]) (e := 129) ?_ 1
        show (w.heap.push _)[b]? = _
        rw [Array.getElem?_push_lt hbl, ← Array.getElem?_eq_getElem hbl]; exact hbk
      have hSD : (Builtin.unsafeSliceData_ #[125] 152 #[.slice (some ⟨g, 0, none⟩) 0 0]).run Try.prog w.drew = .ok (.pointer (some ⟨w.heap.size, 0, none⟩)) (w.drew.alloc (.view ⟨g, 0, none⟩ 5)) :=
        Lib.run_unsafeSliceData_zero _ _ _ 5 Try.underlying152 _ _ (5, cur.size) (by show World.shape? w g = _; unfold World.shape?; rw [hg])
      have hUS : ∀ W, (Builtin.unsafeString_ #[152, 3] 9 #[.pointer (some ⟨w.heap.size, 0, none⟩), .int .i64 0]).run Try.prog W = .ok (.string .empty) W := fun W => Lib.run_unsafeString_none _ _ _ _ _
      have hba : Below w.heap.size w (w.alloc (.view ⟨g, 0, none⟩ 5)).drew := ((Below.refl _ _).alloc (Nat.le_refl _) _).drew
      go_enter Try.func97, Try.ntmps97
      go_wp2
      go_region
      all_goals (go_wp2; go_ret; exact ⟨rfl, hkeep.below hba, hba.mono hBw⟩)
    · have c1 : w.drew.cell? ⟨b, 1, none⟩ = some (.slice (some ⟨g, 0, none⟩) 0 cap) := cell_heap (w := w.drew) hbk 1
      have hSD : (Builtin.unsafeSliceData_ #[125] 152 #[.slice (some ⟨g, 0, none⟩) 0 cap]).run Try.prog w.drew = .ok (.pointer (some ⟨g, 0, none⟩)) w.drew := Lib.run_unsafeSliceData_row _ _ _ _ _ _ hc0
      have hUS : (Builtin.unsafeString_ #[152, 3] 9 #[.pointer (some ⟨g, 0, none⟩), .int .i64 0]).run Try.prog w.drew = .ok (.string .empty) w.drew := Lib.run_unsafeString_none _ _ _ _ _
      go_enter Try.func97, Try.ntmps97
      go_wp2
      go_region
      all_goals (go_wp2; go_ret; exact ⟨rfl, hkeep.below ((Below.refl _ _).drew), (Below.refl _ _).drew⟩)
  have hl0 : l.length ≠ 0 := by simpa using h0
  have hne' : b ≠ g := fun e => hne (by simp [Value.ownBlock, e])
  have c1 : w.drew.cell? ⟨b, 1, none⟩ = some (.slice (some ⟨g, 0, none⟩) l.length cap) := cell_heap (w := w.drew) hbk 1
  have hSD : (Builtin.unsafeSliceData_ #[125] 152 #[.slice (some ⟨g, 0, none⟩) l.length cap]).run Try.prog w.drew = .ok (.pointer (some ⟨g, 0, none⟩)) w.drew :=
    Lib.run_unsafeSliceData_row _ _ _ _ _ _ (by omega)
  have hUS : (Builtin.unsafeString_ #[152, 3] 9 #[.pointer (some ⟨g, 0, none⟩), .int .i64 l.length]).run Try.prog w.drew = .ok (.string ⟨l.toArray⟩) (w.drew.freeze ⟨g, 0, none⟩ l.length) := by
    refine Lib.run_unsafeString_row w.drew 152 3 9 5 Try.underlying152 (by kernel_rfl) g cur.size (by have hg' : w.drew.heap[g]? = some (.cells cur 5 fz) := hg; simp [World.shape?, hg']) l h0 (by omega) (by unfold maxLen at hcm; omega) ?_
    intro j x hx
    have hadd : (⟨g, 0, none⟩ : Addr).add j = ⟨g, j, none⟩ := by unfold Addr.add; by_cases h : j = 0 <;> simp [h]
    have hjl : j < l.length := (List.getElem?_eq_some_iff.1 hx).1
    have e1 : cur.toList[j]? = some (bv x) := by
      have := congrArg (fun q : List Value => q[j]?) htake
      simp only [List.getElem?_take, hjl, if_true, List.getElem?_map, hx, Option.map_some] at this
      exact this
    rw [hadd]
    show World.cell? w ⟨g, j, none⟩ = _
    unfold World.cell?
    simp only [hg]
    simpa [bv] using e1
  obtain ⟨fz', hg'⟩ := freeze_heap (w := w.drew) (g := g) (cur := cur) (e := 5) (fz := fz) hg l.length
  have hb' : (w.drew.freeze ⟨g, 0, none⟩ l.length).heap[b]? = _ := (freeze_other (w := w.drew) hne' l.length).trans hbk
  have hend : WRd B b (w.drew.freeze ⟨g, 0, none⟩ l.length) l err := ⟨hB, p, _, hb', hne, .inr ⟨g, cap, cur, fz', rfl, hbg, hg', hnc, hcm, hcs, htake⟩⟩
  go_enter Try.func97, Try.ntmps97
  go_wp2
  go_region
  all_goals (go_wp2; go_ret; exact ⟨rfl, hend, Lib.below_freeze (Below.drew (Below.refl B w)) (p := ⟨g, 0, none⟩) hbg _⟩)
set_option maxRecDepth 100000 in
set_option maxHeartbeats 1600000 in
theorem wbytes_rd (B b : Nat) (w : World) (l : List UInt8) (h : WRd B b w l 0) (hBw : B ≤ w.heap.size) :
    Calls Try.prog 50 #[.pointer (some ⟨b, 0, none⟩)] w fun e w' => e = .returned (.tuple #[.string ⟨l.toArray⟩, .int .i64 0]) ∧ WRd B b w' l 0 ∧ Below B w w' := by
  have he := h.err
  go_enter Try.func50, Try.ntmps50
  go_wp2_with (go_at_call 97; refine (bstr_rd B b _ l 0 h hBw).mono ?_; rintro e w1 ⟨rfl, h1, hb1⟩)
  go_returns
  exact ⟨rfl, h1, hb1⟩
end Go.Proofs.Ythipnkbfdkmhaaa
namespace Go.Proofs.Ythipnkbfdkmhaaa
open Go.RowKit
/-- The values of a state: port, channel, ordered, closed, stop. -/
structure St where
  p : ByteArray
  c : Int
  o : Bool
  cl : Bool
  st : Int
def St.zero : St := ⟨⟨#[]⟩, 0, false, false, 0⟩
def St.val (s : St) : Value := .agg #[.string s.p, .int .i64 s.c, .bool s.o, .bool s.cl, .int .i64 s.st]
def stopB (s : St) : Bool := bif s.o && s.cl then decide (1 ≤ s.st) && decide (s.st ≤ 1099511627777) else s.st == 0
def mayS (s : St) : Bool := mayE s.p s.c && stopB s
def bitN (b : Bool) : Nat := bif b then 1 else 0
def encS (s : St) : List UInt8 := putL (bitN s.cl) ++ putL (bitN s.o) ++ (putL (s.p.size : Int) ++ s.p.data.toList) ++ putL s.c ++ putL s.st
/-- What Encode answers. -/
def encV (s : St) : Value := bif mayS s then .tuple #[.string ⟨(encS s).toArray⟩, .int .i64 0] else .tuple #[.string ⟨#[]⟩, .int .i64 1]
structure Five where
  n1 : Int
  n2 : Int
  t : ByteArray
  c : Int
  st : Int
  e : Int
def five (v : ByteArray) : Five :=
  let x1 := numG v 0 0 0 1
  let x2 := numG v x1.2.1 x1.2.2 0 1
  let x3 := textG v x2.2.1 x2.2.2 12
  let x4 := numG v x3.2.1 x3.2.2 0 999
  let x5 := numG v x4.2.1 x4.2.2 0 1099511627777
  ⟨x1.1, x2.1, x3.1, x4.1, x5.1, endF v x5.2.1 x5.2.2⟩
def Five.state (f : Five) : St := ⟨f.t, f.c, f.n2 == 1, f.n1 == 1, f.st⟩
/-- What Decode answers: a state and an error. -/
def decS (v : ByteArray) : St × Int :=
  if (five v).e = 0 then (bif mayS (five v).state then ((five v).state, 0) else (St.zero, 1)) else (St.zero, (five v).e)
theorem numF_ok {s : ByteArray} {A lo hi R A' : Int} (h : numF s A lo hi = (R, A', 0)) :
    ∃ i m : Nat, A = i ∧ A' = ((i + m : Nat) : Int) ∧ i + m ≤ s.size ∧ putL R = (s.data.toList.drop i).take m ∧ lo ≤ R ∧ R ≤ hi ∧ encB R = true := by
  obtain ⟨v, n, er, hx⟩ : ∃ v n er, nextS s.data.toList A = (v, n, er) := ⟨_, _, _, rfl⟩
  by_cases he : er = 0
  · subst he
    by_cases ho : v < lo ∨ hi < v
    · rw [numF_out hx ho] at h; simp at h
    · rw [numF_in hx ho] at h
      simp only [Prod.mk.injEq, and_true] at h
      obtain ⟨rfl, rfl⟩ := h
      obtain ⟨i, m, x, h1, h2, h3, h4, h5, h6, h7, _⟩ := next_ok hx
      rw [str_len] at h5
      exact ⟨i, m, h1, h3, h5, h6, by omega, by omega, by unfold encB; exact decide_eq_true (by omega)⟩
  · rw [numF_err hx he] at h; simp at h; exact absurd h.2.2 he
theorem textF_ok {s t : ByteArray} {A most A' : Int} (h : textF s A most = (t, A', 0)) :
    ∃ i m : Nat, A = i ∧ A' = ((i + m : Nat) : Int) ∧ i + m ≤ s.size ∧ putL (t.size : Int) ++ t.data.toList = (s.data.toList.drop i).take m ∧ (t.size : Int) ≤ most := by
  obtain ⟨v, n, er, hx⟩ : ∃ v n er, nextS s.data.toList A = (v, n, er) := ⟨_, _, _, rfl⟩
  unfold textF at h
  rw [hx] at h
  by_cases he : er = 0
  · subst he
    simp only [if_pos trivial] at h
    by_cases ho : most < v
    · rw [if_pos ho] at h; simp at h
    rw [if_neg ho] at h
    by_cases hq : (s.size : Int) - n < v
    · rw [if_pos hq] at h; simp at h
    rw [if_neg hq] at h
    simp only [Prod.mk.injEq, and_true] at h
    obtain ⟨rfl, rfl⟩ := h
    obtain ⟨i, m, x, h1, h2, h3, h4, h5, h6, h7, _⟩ := next_ok hx
    rw [str_len] at h5
    subst h1 h2 h3
    have hts : (s.extract ((i + m : Nat) : Int).toNat (((i + m : Nat) : Int) + (x : Int)).toNat).size = x := by
      rw [Int.toNat_natCast, show (((i + m : Nat) : Int) + (x : Int)).toNat = i + m + x by omega]
      simp; omega
    have htl : (s.extract ((i + m : Nat) : Int).toNat (((i + m : Nat) : Int) + (x : Int)).toNat).data.toList = (s.data.toList.drop (i + m)).take x := by
      rw [Int.toNat_natCast, show (((i + m : Nat) : Int) + (x : Int)).toNat = i + m + x by omega]
      simp
    refine ⟨i, m + x, rfl, by omega, by omega, ?_, by rw [hts]; omega⟩
    rw [hts, htl, h6, List.take_add, List.drop_drop]
  · simp only [if_neg he] at h; simp at h; exact absurd h.2.2 he
theorem numG_ok {s : ByteArray} {A E lo hi R A' : Int} (h : numG s A E lo hi = (R, A', 0)) : E = 0 ∧ numF s A lo hi = (R, A', 0) := by
  unfold numG at h
  split at h
  · rename_i he; exact ⟨he, h⟩
  · rename_i he; simp at h; exact absurd h.2.2 he
theorem textG_ok {s t : ByteArray} {A E most A' : Int} (h : textG s A E most = (t, A', 0)) : E = 0 ∧ textF s A most = (t, A', 0) := by
  unfold textG at h
  split at h
  · rename_i he; exact ⟨he, h⟩
  · rename_i he; simp at h; exact absurd h.2.2 he
theorem endF_ok {s : ByteArray} {A E : Int} (h : endF s A E = 0) : E = 0 ∧ (s.size : Int) ≤ A := by
  unfold endF at h
  split at h
  · rename_i he
    split at h
    · cases h
    · exact ⟨he, by omega⟩
  · rename_i he; exact absurd h he
theorem take_step' (l : List UInt8) (i m : Nat) : l.take (i + m) = l.take i ++ (l.drop i).take m := List.take_add
theorem bit_of {n : Int} (h0 : 0 ≤ n) (h1 : n ≤ 1) : ((bitN (n == 1) : Nat) : Int) = n := by
  rcases (show n = 0 ∨ n = 1 by omega) with rfl | rfl <;> rfl
/-- What reads as a state is the state's bytes. -/
theorem five_enc {v : ByteArray} (h : (five v).e = 0) : encS (five v).state = v.data.toList := by
  obtain ⟨⟨r1, a1, e1⟩, h1⟩ : ∃ t, numG v 0 0 0 1 = t := ⟨_, rfl⟩
  obtain ⟨⟨r2, a2, e2⟩, h2⟩ : ∃ t, numG v a1 e1 0 1 = t := ⟨_, rfl⟩
  obtain ⟨⟨r3, a3, e3⟩, h3⟩ : ∃ t, textG v a2 e2 12 = t := ⟨_, rfl⟩
  obtain ⟨⟨r4, a4, e4⟩, h4⟩ : ∃ t, numG v a3 e3 0 999 = t := ⟨_, rfl⟩
  obtain ⟨⟨r5, a5, e5⟩, h5⟩ : ∃ t, numG v a4 e4 0 1099511627777 = t := ⟨_, rfl⟩
  have hf : five v = ⟨r1, r2, r3, r4, r5, endF v a5 e5⟩ := by
    unfold five
    simp only [h1, h2, h3, h4, h5]
  rw [hf] at h ⊢
  simp only at h
  obtain ⟨rfl, hend⟩ := endF_ok h
  obtain ⟨rfl, g5⟩ := numG_ok h5
  obtain ⟨rfl, g4⟩ := numG_ok h4
  obtain ⟨rfl, g3⟩ := textG_ok h3
  obtain ⟨rfl, g2⟩ := numG_ok h2
  obtain ⟨_, g1⟩ := numG_ok h1
  obtain ⟨i1, m1, z1, rfl, l1, p1, lo1, hi1, _⟩ := numF_ok g1
  obtain ⟨i2, m2, z2, rfl, l2, p2, lo2, hi2, _⟩ := numF_ok g2
  obtain ⟨i3, m3, z3, rfl, l3, p3, _⟩ := textF_ok g3
  obtain ⟨i4, m4, z4, rfl, l4, p4, _⟩ := numF_ok g4
  obtain ⟨i5, m5, z5, rfl, l5, p5, _⟩ := numF_ok g5
  obtain rfl : i1 = 0 := by omega
  obtain rfl : i2 = 0 + m1 := by omega
  obtain rfl : i3 = 0 + m1 + m2 := by omega
  obtain rfl : i4 = 0 + m1 + m2 + m3 := by omega
  obtain rfl : i5 = 0 + m1 + m2 + m3 + m4 := by omega
  have hfull : v.data.toList = v.data.toList.take (0 + m1 + m2 + m3 + m4 + m5) := by
    rw [List.take_of_length_le (by rw [str_len]; omega)]
  rw [hfull, take_step', take_step' _ (0 + m1 + m2 + m3), take_step' _ (0 + m1 + m2), take_step' _ (0 + m1), take_step' _ 0, ← p5, ← p4, ← p3, ← p2, ← p1]
  unfold encS Five.state
  simp only [bit_of lo1 hi1, bit_of lo2 hi2]
  simp
theorem mayS_bounds {s : St} (h : mayS s = true) : mayE s.p s.c = true ∧ stopB s = true ∧ 0 ≤ s.st ∧ s.st ≤ 1099511627777 := by
  unfold mayS at h
  rw [Bool.and_eq_true] at h
  refine ⟨h.1, h.2, ?_⟩
  have h2 := h.2
  unfold stopB at h2
  cases hb : s.o && s.cl
  · rw [hb] at h2; simp at h2; omega
  · rw [hb] at h2; simp at h2; omega
theorem mayE_bounds {p : ByteArray} {c : Int} (h : mayE p c = true) : p.size ≤ 12 ∧ 0 ≤ c ∧ c ≤ 999 := by
  unfold mayE nmB nameP at h
  simp only [Bool.and_eq_true, decide_eq_true_eq] at h
  rw [str_len] at h
  omega
/-- A state's bytes, with more behind them, read as the state. -/
theorem numF_at {v : ByteArray} {A B : List UInt8} {x : Nat} {lo hi : Int} (hv : v.data.toList = A ++ putL (x : Int) ++ B) (hx : x ≤ 72057594037927935) (h1 : lo ≤ (x : Int)) (h2 : (x : Int) ≤ hi) :
    numG v A.length 0 lo hi = ((x : Int), (((A ++ putL (x : Int)).length : Nat) : Int), 0) := by
  unfold numG
  rw [if_pos rfl]
  have hn := next_put (A := A) (B := B) hx
  rw [← hv] at hn
  rw [numF_in hn (by omega), List.length_append]
theorem extract_mid' {T s : ByteArray} {A B : List UInt8} (h : T.data.toList = A ++ s.data.toList ++ B) : T.extract A.length (A.length + s.size) = s := by
  apply ByteArray.ext
  apply Array.ext'
  have e : (T.extract A.length (A.length + s.size)).data.toList = (T.data.toList.drop A.length).take (A.length + s.size - A.length) := by simp
  rw [e, h, List.append_assoc, List.drop_left, show A.length + s.size - A.length = s.data.toList.length by rw [str_len]; omega, List.take_left]
theorem textF_at {v t : ByteArray} {A B : List UInt8} {most : Int} (hv : v.data.toList = A ++ (putL (t.size : Int) ++ t.data.toList) ++ B) (ht : t.size ≤ 1000000) (h2 : (t.size : Int) ≤ most) :
    textG v A.length 0 most = (t, (((A ++ (putL (t.size : Int) ++ t.data.toList)).length : Nat) : Int), 0) := by
  unfold textG textF
  rw [if_pos rfl]
  have hn := next_put (A := A) (B := t.data.toList ++ B) (show t.size ≤ 72057594037927935 by omega)
  rw [show A ++ putL ((t.size : Nat) : Int) ++ (t.data.toList ++ B) = v.data.toList by rw [hv]; simp] at hn
  have hsz : v.size = A.length + (putL (t.size : Int)).length + t.size + B.length := by rw [← str_len, hv]; simp; omega
  rw [hn]
  simp only [if_pos trivial]
  rw [if_neg (by omega), if_neg (by omega)]
  have hx := extract_mid' (T := v) (s := t) (A := A ++ putL ((t.size : Nat) : Int)) (B := B) (by rw [hv]; simp)
  rw [List.length_append] at hx
  rw [show (((A.length + (putL ((t.size : Nat) : Int)).length : Nat) : Int) + (t.size : Int)) = ((A.length + (putL ((t.size : Nat) : Int)).length + t.size : Nat) : Int) by omega]
  simp only [Int.toNat_natCast]
  rw [hx, List.length_append, List.length_append, str_len, Nat.add_assoc]
theorem bitN_le (b : Bool) : bitN b ≤ 1 := by cases b <;> decide
theorem five_of {s : St} (hs : mayS s = true) {v : ByteArray} {B : List UInt8} (hv : v.data.toList = encS s ++ B) : five v = ⟨bitN s.cl, bitN s.o, s.p, s.c, s.st, if B = [] then 0 else 3⟩ := by
  obtain ⟨hE, _, hst0, hst1⟩ := mayS_bounds hs
  obtain ⟨hp, hc0, hc1⟩ := mayE_bounds hE
  obtain ⟨cN, hcN⟩ : ∃ x : Nat, s.c = x := ⟨s.c.toNat, by omega⟩
  obtain ⟨sN, hsN⟩ : ∃ x : Nat, s.st = x := ⟨s.st.toNat, by omega⟩
  have b1 := bitN_le s.cl
  have b2 := bitN_le s.o
  unfold encS at hv
  rw [hcN, hsN] at hv
  have h1 := numF_at (v := v) (A := []) (B := putL (bitN s.o) ++ (putL (s.p.size : Int) ++ s.p.data.toList) ++ putL (cN : Int) ++ putL (sN : Int) ++ B) (x := bitN s.cl) (lo := 0) (hi := 1) (by rw [hv]; simp) (by omega) (by omega) (by omega)
  have h2 := numF_at (v := v) (A := [] ++ putL (bitN s.cl)) (B := (putL (s.p.size : Int) ++ s.p.data.toList) ++ putL (cN : Int) ++ putL (sN : Int) ++ B) (x := bitN s.o) (lo := 0) (hi := 1) (by rw [hv]; simp) (by omega) (by omega) (by omega)
  have h3 := textF_at (v := v) (t := s.p) (A := [] ++ putL (bitN s.cl) ++ putL (bitN s.o)) (B := putL (cN : Int) ++ putL (sN : Int) ++ B) (most := 12) (by rw [hv]; simp) (by omega) (by omega)
  have h4 := numF_at (v := v) (A := [] ++ putL (bitN s.cl) ++ putL (bitN s.o) ++ (putL (s.p.size : Int) ++ s.p.data.toList)) (B := putL (sN : Int) ++ B) (x := cN) (lo := 0) (hi := 999) (by rw [hv]; simp) (by omega) (by omega) (by omega)
  have h5 := numF_at (v := v) (A := [] ++ putL (bitN s.cl) ++ putL (bitN s.o) ++ (putL (s.p.size : Int) ++ s.p.data.toList) ++ putL (cN : Int)) (B := B) (x := sN) (lo := 0) (hi := 1099511627777) (by rw [hv]; simp) (by omega) (by omega) (by omega)
  have hsz : v.size = ([] ++ putL (bitN s.cl) ++ putL (bitN s.o) ++ (putL (s.p.size : Int) ++ s.p.data.toList) ++ putL (cN : Int) ++ putL (sN : Int)).length + B.length := by rw [← str_len, hv]; simp only [List.nil_append, List.length_append]
  unfold five
  rw [show ((([] : List UInt8).length : Nat) : Int) = 0 from rfl] at h1
  simp only [h1, h2, h3, h4, h5, hcN, hsN]
  congr 1
  unfold endF
  rw [if_pos rfl, hsz]
  cases B with
  | nil => rw [if_neg (by simp), if_pos rfl]
  | cons b B => rw [if_pos (by simp; omega), if_neg (by simp)]
theorem state_of {s : St} (e : Int) : Five.state ⟨bitN s.cl, bitN s.o, s.p, s.c, s.st, e⟩ = s := by
  unfold Five.state
  cases s with
  | mk p c o cl st => cases o <;> cases cl <;> rfl
theorem decS_enc {s : St} (hs : mayS s = true) {v : ByteArray} (hv : v.data.toList = encS s) : decS v = (s, 0) := by
  have h := five_of hs (B := []) (by rw [hv]; simp)
  unfold decS
  rw [h]
  simp only [if_pos trivial]
  rw [state_of, hs]; rfl
theorem decS_more {s : St} (hs : mayS s = true) {v : ByteArray} {b : UInt8} {B : List UInt8} (hv : v.data.toList = encS s ++ (b :: B)) : decS v = (St.zero, 3) := by
  have h := five_of hs hv
  unfold decS
  rw [h]
  simp
theorem decS_back {v : ByteArray} (h : (decS v).2 = 0) : mayS (decS v).1 = true ∧ encS (decS v).1 = v.data.toList := by
  unfold decS at h ⊢
  by_cases he : (five v).e = 0
  · rw [if_pos he] at h ⊢
    cases hm : mayS (five v).state
    · rw [hm] at h; cases h
    · simp only [cond_true]
      exact ⟨hm, five_enc he⟩
  · rw [if_neg he] at h; exact absurd h he
theorem decS_err {v : ByteArray} (h : (decS v).2 ≠ 0) : (decS v).1 = St.zero := by
  unfold decS at h ⊢
  by_cases he : (five v).e = 0
  · rw [if_pos he] at h ⊢
    cases hm : mayS (five v).state
    · rfl
    · rw [hm] at h; exact absurd rfl h
  · rw [if_neg he]
theorem encS_len {s : St} (hs : mayS s = true) : (encS s).length ≤ 52 := by
  obtain ⟨hE, _, _⟩ := mayS_bounds hs
  obtain ⟨hp, _⟩ := mayE_bounds hE
  have hl : ∀ v : Int, (putL v).length ≤ 8 := fun v => by
    unfold putL
    split
    · exact grp_le _ _
    · simp
  have a1 := hl (bitN s.cl); have a2 := hl (bitN s.o); have a3 := hl (s.p.size : Int); have a4 := hl s.c; have a5 := hl s.st
  unfold encS
  simp only [List.length_append, str_len]; omega
end Go.Proofs.Ythipnkbfdkmhaaa
namespace Go.Proofs.Ythipnkbfdkmhaaa
open Go.RowKit
attribute [local go_sem] strV
end Go.Proofs.Ythipnkbfdkmhaaa
namespace Go.Proofs.Ythipnkbfdkmhaaa
open Go.RowKit
attribute [local go_sem] strV
theorem putL_len8 (v : Int) : (putL v).length ≤ 8 := by
  unfold putL
  split
  · exact grp_le _ _
  · simp
set_option maxRecDepth 100000 in
set_option maxHeartbeats 1600000 in
theorem refPutText_any (s : ByteArray) (w : World) (hs : s.size ≤ 1000000) :
    Calls Try.prog 63 #[.string s] w fun e w' => e = .returned (strV (putL (s.size : Int) ++ s.data.toList)) ∧ Below w.heap.size w w' := by
  have hv : strV (putL (s.size : Int) ++ s.data.toList) = .string (⟨(putL (s.size : Int)).toArray⟩ ++ s) := by
    unfold strV; congr 1
  have hcat : ¬ 9223372036854775807 < (putL (s.size : Int)).length + s.size := by have := putL_len8 (s.size : Int); omega
  rw [hv]
  go_enter Try.func63, Try.ntmps63
  go_wp2_with (go_at_call 60; refine (putNum_any _ _).mono ?_; rintro e w1 ⟨rfl, hb1⟩)
  go_ret
  exact ⟨rfl, hb1⟩
end Go.Proofs.Ythipnkbfdkmhaaa
namespace Go.Proofs.Ythipnkbfdkmhaaa
open Go.RowKit
attribute [local go_sem] strV
theorem cells_of {w : World} {g : Nat} {c : Array Value} {e : TypeId} (h : w.heap[g]? = some (.cells c e (0, 0))) {K : Nat} {w' : World} (hb : Below K w w') (hg : g < K) : w'.heap[g]? = some (.cells c e (0, 0)) := by
  rw [hb.block g hg]; exact h
theorem putL_len' (v : Int) : (putL v).length ≤ 8 := by
  unfold putL
  split
  · exact grp_le _ _
  · simp
theorem ba_append' (l m : List UInt8) : (⟨l.toArray⟩ : ByteArray) ++ ⟨m.toArray⟩ = ⟨(l ++ m).toArray⟩ := by
  apply ByteArray.ext; simp
end Go.Proofs.Ythipnkbfdkmhaaa
namespace Go.Proofs.Ythipnkbfdkmhaaa
open Go.RowKit
attribute [local go_sem] strV
theorem wp_nameE {P : Program} {c : Code} {Q : Exit → Act → World → Prop} {a : Act} (E : World) (h : ∀ W, W = E → c.wp P Q a W) : c.wp P Q a E := h E rfl
theorem RAt.put {b g k : Nat} {w : World} {s : ByteArray} {A E : Int} (h : RAt b w s A E) (hne : g ≠ b) (x : Value) : RAt b (w.setCell ⟨g, k, none⟩ x) s A E := by
  unfold RAt at h ⊢
  show (w.heap.modify g _)[b]? = _
  rw [Array.getElem?_modify, if_neg hne]; exact h
theorem row_put5 {w : World} {g k : Nat} {cur : Array Value} {t : TypeId} {v : Value} (h : w.heap[g]? = some (.cells cur t (0, 0))) : (w.setCell ⟨g, k, none⟩ v).heap[g]? = some (.cells (cur.setIfInBounds k v) t (0, 0)) := by
  show (w.heap.modify g _)[g]? = _
  rw [Array.getElem?_modify, if_pos rfl, h]; rfl
theorem row_oth {w : World} {g k b : Nat} {X : Obj} {v : Value} (h : w.heap[b]? = some X) (hne : g ≠ b) : (w.setCell ⟨g, k, none⟩ v).heap[b]? = some X := by
  show (w.heap.modify g _)[b]? = _
  rw [Array.getElem?_modify, if_neg hne]; exact h
theorem Kept.row5 {b g : Nat} {w w' : World} {X : Obj} (h : Kept b w w') (hg : w.heap[g]? = some X) (hb : g ≠ b) : w'.heap[g]? = some X := by
  rw [h.block g (Array.getElem?_eq_some_iff.1 hg).1 hb]; exact hg
theorem rangeAt_row5 {w : World} {b : Nat} {e : TypeId} {fz : Nat × Nat} {C : Array Value} (h : w.heap[b]? = some (.cells C e fz)) : w.rangeAt b 0 C.toList := fun j v hv => by
  unfold World.cell?; rw [h, Nat.zero_add]; simpa using hv
theorem St.row_one (p : ByteArray) (c : Int) (o cl : Bool) (st : Int) : (#[.string p, .int .i64 c, .bool o, .bool cl, .int .i64 st] : Array Value).all (·.oneCell') = true := by
  rw [Array.all_eq_true_iff_forall_mem]; intro v hv; simp at hv; rcases hv with rfl | rfl | rfl | rfl | rfl <;> rfl
theorem textG_size (v : ByteArray) (a e m : Int) : (textG v a e m).1.size ≤ v.size := by
  unfold textG
  split
  · unfold textF
    dsimp only
    split
    · split
      · exact Nat.zero_le _
      · split
        · exact Nat.zero_le _
        · simp; omega
    · exact Nat.zero_le _
  · exact Nat.zero_le _
end Go.Proofs.Ythipnkbfdkmhaaa
