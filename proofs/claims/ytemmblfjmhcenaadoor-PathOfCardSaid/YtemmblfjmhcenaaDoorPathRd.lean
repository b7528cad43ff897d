/- Reading a key, walked. -/
import Derived.Test.YtemmblfjmhcenaaDoorPathNames
import Derived.BigRegion
import Derived.RegionTactic
import Derived.WalkKit
import Derived.ProofKit
import Derived.Handy
import Derived.Below
import Derived.BigQuiet
import Derived.Lib.Hide
import Derived.IntWalk
import Derived.Outline
import Derived.WalkLawsBesides
import Derived.WalkSpells
namespace Go.Proofs.YtemmblfjmhcenaaDoor
open Go.RowKit
attribute [local go_sem] strV
def kindOfB (x : ByteArray) : Int := if wordB 1 = x then 1 else if wordB 2 = x then 2 else if wordB 3 = x then 3 else if wordB 4 = x then 4 else if wordB 5 = x then 5 else if wordB 6 = x then 6 else if wordB 7 = x then 7 else 0
theorem kindOf_of {k : Int} {x : ByteArray} (hk : kindB k = true) (h : wordB k = x) : kindOfB x = k := by
  subst h
  rcases kind_cases k with ⟨h1, _⟩ | ⟨_, h2⟩
  · rcases h1 with rfl | rfl | rfl | rfl | rfl | rfl | rfl <;> decide +kernel
  · rw [hk] at h2; cases h2
theorem kindOf_none {x : ByteArray} (h : ∀ k : Nat, 1 ≤ k → k < 8 → wordB (k : Int) ≠ x) : kindOfB x = 0 := by
  unfold kindOfB
  rw [if_neg (show ¬ wordB 1 = x from h 1 (by omega) (by omega)), if_neg (show ¬ wordB 2 = x from h 2 (by omega) (by omega)), if_neg (show ¬ wordB 3 = x from h 3 (by omega) (by omega)), if_neg (show ¬ wordB 4 = x from h 4 (by omega) (by omega)), if_neg (show ¬ wordB 5 = x from h 5 (by omega) (by omega)), if_neg (show ¬ wordB 6 = x from h 6 (by omega) (by omega)), if_neg (show ¬ wordB 7 = x from h 7 (by omega) (by omega))]
set_option maxRecDepth 100000 in
set_option maxHeartbeats 1600000 in
theorem kindOf_any (x : ByteArray) (w : World) :
    Calls Tryd.prog 31 #[.string x] w fun e w' => e = .returned (.int .i64 (kindOfB x)) ∧ Below w.heap.size w w' := by
  go_enter Tryd.func31, Tryd.ntmps31
  go_wp2
  go_loopw [3] (fun i wr => ∃ k : Nat, 1 ≤ k ∧ k ≤ 8 ∧ Below w.heap.size w wr ∧ Hid (∀ j : Nat, 1 ≤ j → j < k → wordB (j : Int) ≠ x) ∧ i = .int .i64 k) (fun i _ => 8 - (intOf i).toNat)
  case atStart => exact ⟨1, by omega, by omega, Below.refl _ _, Lib.hid (fun j h1 h2 => by omega), rfl⟩
  case round =>
    obtain ⟨k, hk1, hk8, hbel, HA, rfl⟩ := hrel
    by_cases h8 : k = 8
    · subst h8
      have HR := Lib.hid (kindOf_none HA.out)
      go_wp2
      go_ret
      exact ⟨by rw [HR.out]; first | done | rfl, hbel⟩
    · have hk7 : (k : Int) ≤ 7 := by omega
      obtain ⟨wd, hwd⟩ : ∃ y, wordB (k : Int) = y := ⟨_, rfl⟩
      cases hq : (wd.toList == x.toList)
      · have hne : wordB (k : Int) ≠ x := by
          rw [hwd]; rintro rfl; simp at hq
        have HS : Hid (∀ j : Nat, 1 ≤ j → j < k + 1 → wordB (j : Int) ≠ x) := Lib.hid (fun j h1 h2 => by
          by_cases hj : j = k
          · rw [hj]; exact hne
          · exact HA.out j h1 (by omega))
        go_wp2_with (go_at_call 33; refine (word_any _ _).mono ?_; rintro e w1 ⟨rfl, hw1⟩; obtain rfl : _ = w1 := hw1.symm; rw [hwd])
        go_roundw
        case rel => exact ⟨k + 1, by omega, by omega, hbel, HS, by go_num⟩
        case measure => (simp [intOf]) <;> omega
      · have hx : wd = x := by
          rw [ByteArray.toList_eq, ByteArray.toList_eq, beq_iff_eq] at hq
          exact ByteArray.ext (Array.toList_inj.1 hq)
        have HR := Lib.hid (kindOf_of (k := (k : Int)) (x := x) (by unfold kindB; rw [decide_eq_true (show (1 : Int) ≤ k by omega), decide_eq_true hk7]; rfl) (hwd.trans hx))
        go_wp2_with (go_at_call 33; refine (word_any _ _).mono ?_; rintro e w1 ⟨rfl, hw1⟩; obtain rfl : _ = w1 := hw1.symm; rw [hwd])
        go_ret
        exact ⟨by rw [HR.out]; first | done | rfl, hbel⟩

def cutA (s sep : ByteArray) : ByteArray := ⟨(cutL s sep).1.toArray⟩
def cutR (s sep : ByteArray) : ByteArray := ⟨(cutL s sep).2.1.toArray⟩
def cutF (s sep : ByteArray) : Bool := (cutL s sep).2.2
theorem cutX_any (s sep : ByteArray) (w : World) (hW : PW w) (hs : s.size < 4294967281) :
    Calls Tryd.prog 26 #[.string s, .string sep] w fun e w' => e = .returned (.tuple #[.string (cutA s sep), .string (cutR s sep), .bool (cutF s sep)]) ∧ Below w.heap.size w w' := cut_any s sep w hW hs
theorem cutA_size (s sep : ByteArray) : (cutA s sep).size ≤ s.size := by unfold cutA cutL; rw [← str_len, ← str_len]; exact (cut_le _ _).1
theorem cutR_size (s sep : ByteArray) : (cutR s sep).size ≤ s.size := by unfold cutR cutL; rw [← str_len, ← str_len]; exact (cut_le _ _).2
def rdR (s : ByteArray) : ByteArray := cutR s (⟨#[47, 112, 111, 114, 116, 115, 47]⟩ : ByteArray)
def rdQ (s : ByteArray) : ByteArray := cutR (rdR s) (⟨#[47, 99, 104, 97, 110, 110, 101, 108, 115, 47]⟩ : ByteArray)
def rdK (s : ByteArray) : Int := kindOfB (cutA s (⟨#[47, 112, 111, 114, 116, 115, 47]⟩ : ByteArray))
def rdP (s : ByteArray) : ByteArray := cutA (rdR s) (⟨#[47, 99, 104, 97, 110, 110, 101, 108, 115, 47]⟩ : ByteArray)
def rdM (s : ByteArray) : ByteArray := cutA (rdQ s) (⟨#[47, 115, 101, 113, 117, 101, 110, 99, 101, 115, 47]⟩ : ByteArray)
def rdO (s : ByteArray) : ByteArray := cutR (rdQ s) (⟨#[47, 115, 101, 113, 117, 101, 110, 99, 101, 115, 47]⟩ : ByteArray)
def rdC (s : ByteArray) : Int := numVB (digs (rdM s))
def rdN (s : ByteArray) : Int := if (rdO s).size = 0 then 0 else numVB (rdO s)
def rdOk (s : ByteArray) : Bool := okE (rdP s) (rdM s) && (decide ((rdO s).size = 0) || numEB (rdO s) == 0)
def readB (s : ByteArray) : Bool := rdOk s && ((ofE (rdK s) (rdP s) (rdC s) (rdN s)).toList == s.toList)
def readR (s : ByteArray) : Ending := if readB s = true then .returned (.tuple #[.int .i64 (rdK s), .agg #[.string (rdP s), .int .i64 (rdC s)], .int .i64 (rdN s), .int .i64 0])
  else .returned (.tuple #[.int .i64 0, .agg #[.string ⟨#[]⟩, .int .i64 0], .int .i64 0, .int .i64 3])
theorem read_fail {s : ByteArray} (h : readB s = false) : readR s = .returned (.tuple #[.int .i64 0, .agg #[.string ⟨#[]⟩, .int .i64 0], .int .i64 0, .int .i64 3]) := by unfold readR; rw [h]; rfl
theorem read_ok {s : ByteArray} (h : readB s = true) : readR s = .returned (.tuple #[.int .i64 (rdK s), .agg #[.string (rdP s), .int .i64 (rdC s)], .int .i64 (rdN s), .int .i64 0]) := by unfold readR; rw [h]; rfl
end Go.Proofs.YtemmblfjmhcenaaDoor
