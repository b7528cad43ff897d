/- The laws of chapter 1, walked: each returns true. -/
import Derived.Test.YtejplaffpaoadaaRows
import Derived.Test.YtejplaffpaoadaaLebRead2
import Derived.Test.YtejplaffpaoadaaLebEight
import Derived.Test.YtejplaffpaoadaaLebEight2
import Derived.Test.YtejplaffpaoadaaLebMore
import Derived.WalkKit
import Derived.ProofKit
import Derived.Handy
import Derived.Below
import Derived.Lib.Hide
import Derived.IntWalk
import Derived.Outline
import Derived.WalkLawsBesides
import Derived.WalkSpells
namespace Go.Proofs.Ytejplaffpaoadaa
open Go.RowKit
attribute [local go_sem] trip strV pairV

set_option maxRecDepth 100000 in
set_option maxHeartbeats 800000 in
theorem first_any (w : World) :
    Calls Try.prog 8 #[] w fun e w' => e = .returned (.bool true) ∧ Below w.heap.size w w' := by
  have h1 : nextS [172, 2] 0 = (300, 2, 0) := by decide
  have h2 : putL 300 = [172, 2] := by decide
  have H1 := Lib.hid h1; have H2 := Lib.hid h2; clear h1 h2
  go_enter Try.func8, Try.ntmps8
  go_wp2_with (first | (go_at_call 9; (refine (next_any _ _ _ (by unfold maxLen; decide)).mono ?_; rintro e wx ⟨rfl, rfl⟩; rw [show (⟨#[172, 2]⟩ : ByteArray).data.toList = [172, 2] from rfl, H1.out])) | (go_at_call 11; refine (put_any _ _).mono ?_; rintro e w1 ⟨rfl, hb⟩; rw [H2.out]) | (go_at_call 13; refine (size_any _ _).mono ?_; rintro e w' ⟨rfl, rfl⟩; rw [H2.out]))
  go_ret
  exact ⟨rfl, by assumption⟩

set_option maxRecDepth 100000 in
set_option maxHeartbeats 800000 in
theorem walkLebTells (v : Int) (s : ByteArray) (a : Int) (w : World) (hs : s.size ≤ maxLen) :
    Calls Try.prog 3 #[.int .i64 v, .string s, .int .i64 a] w fun e w' => e = .returned (.bool true) ∧ Below w.heap.size w w' := by
  have hs' := hs; unfold maxLen at hs'
  by_cases hl : 300 < s.size
  · go_enter Try.func3, Try.ntmps3
    go_wp2_with (go_at_call 8; refine (first_any _).mono ?_; rintro e w1 ⟨rfl, hb⟩)
    go_ret
    exact ⟨rfl, by repeat (first | assumption | exact Below.refl _ _ | refine bch ?_ (by assumption))⟩
  · go_enter Try.func3, Try.ntmps3
    go_wp2_with (first | (go_at_call 8; refine (first_any _).mono ?_; rintro e w1 ⟨rfl, hb⟩) | (go_at_call 9; refine (next_any _ _ _ hs).mono ?_; rintro e wx ⟨rfl, rfl⟩) | (go_at_call 10; refine (nextNum_any _ _ _ hs).mono ?_; rintro e wx ⟨rfl, rfl⟩) | (go_at_call 11; refine (put_any _ _).mono ?_; rintro e w1 ⟨rfl, hb⟩) | (go_at_call 12; refine (putNum_any _ _).mono ?_; rintro e w1 ⟨rfl, hb⟩) | (go_at_call 13; refine (size_any _ _).mono ?_; rintro e wx ⟨rfl, rfl⟩))
    go_ret
    exact ⟨rfl, by repeat (first | assumption | exact Below.refl _ _ | refine bch ?_ (by assumption))⟩

set_option maxRecDepth 100000 in
set_option maxHeartbeats 800000 in
theorem walkLebEight (v : Int) (s : ByteArray) (w : World) (hs : s.size ≤ maxLen) :
    Calls Try.prog 6 #[.int .i64 v, .string s] w fun e w' => e = .returned (.bool true) ∧ Below w.heap.size w w' := by
  have hs' := hs; unfold maxLen at hs'
  by_cases hl : 40 < s.size
  · go_enter Try.func6, Try.ntmps6
    go_wp2_with (go_at_call 8; refine (first_any _).mono ?_; rintro e w1 ⟨rfl, hb⟩)
    go_ret
    exact ⟨rfl, by repeat (first | assumption | exact Below.refl _ _ | refine bch ?_ (by assumption))⟩
  · go_enter Try.func6, Try.ntmps6
    go_wp2_with (first | (go_at_call 8; refine (first_any _).mono ?_; rintro e w1 ⟨rfl, hb⟩) | (go_at_call 14; refine (fromEight_any _ _ hs).mono ?_; rintro e wx ⟨rfl, rfl⟩) | (go_at_call 15; refine (refFromEight_any _ _ hs).mono ?_; rintro e wx ⟨rfl, rfl⟩) | (go_at_call 16; refine (eight_any _ _).mono ?_; rintro e w1 ⟨rfl, hb⟩) | (go_at_call 17; refine (refEight_any _ _).mono ?_; rintro e w1 ⟨rfl, hb⟩))
    go_ret
    exact ⟨rfl, by repeat (first | assumption | exact Below.refl _ _ | refine bch ?_ (by assumption))⟩

set_option maxRecDepth 100000 in
set_option maxHeartbeats 800000 in
theorem walkLebRises (a b : Int) (w : World) :
    Calls Try.prog 7 #[.int .i64 a, .int .i64 b] w fun e w' => e = .returned (.bool true) ∧ Below w.heap.size w w' := by
  by_cases h : 0 ≤ a ∧ a < b ∧ b ≤ 72057594037927935
  · obtain ⟨h1, h2, h3⟩ := h
    obtain ⟨x, rfl⟩ := Int.eq_ofNat_of_zero_le h1
    obtain ⟨y, rfl⟩ := Int.eq_ofNat_of_zero_le (show 0 ≤ b by omega)
    have ex : encB (x : Int) = true := by simp [encB]; omega
    have ey : encB (y : Int) = true := by simp [encB]; omega
    have E1 : Hid (eightL (x : Int) = be 8 x) := Lib.hid (by unfold eightL; rw [if_pos ex]; rfl)
    have E2 : Hid (eightL (y : Int) = be 8 y) := Lib.hid (by unfold eightL; rw [if_pos ey]; rfl)
    have hless : Op.bytesLess (be 8 x) (be 8 y) = true := be_less 8 x y (by omega) (by omega)
    have hfrom : fromEightS (be 8 x) = ((x : Int), 0) := by
      unfold fromEightS
      rw [be_length, if_neg (by omega), if_neg (by omega), if_pos, from_be 8 x (by omega)]
      rw [be_cons, Nat.div_eq_of_lt (by omega)]; rfl
    have hsz : (putL (x : Int)).length ≤ (putL (y : Int)).length := by
      unfold putL; rw [if_pos ex, if_pos ey]; exact grp_mono 7 _ _ (by omega)
    have hne : (putL (x : Int) == putL (y : Int)) = false := by
      rw [beq_eq_false_iff_ne]; intro e; have := put_inj (by omega) (by omega) e; omega
    have HF := Lib.hid hfrom
    clear hfrom ex ey
    go_enter Try.func7, Try.ntmps7
    go_wp2_with (first | (go_at_call 8; refine (first_any _).mono ?_; rintro e w1 ⟨rfl, hb⟩) | (go_at_call 14; refine (fromEight_any _ _ (by show (be 8 x).length ≤ _; rw [be_length]; unfold maxLen; omega)).mono ?_; rintro e wx ⟨rfl, rfl⟩; rw [show (⟨(be 8 x).toArray⟩ : ByteArray).data.toList = be 8 x from rfl, HF.out]) | (go_at_call 16; refine (eight_any _ _).mono ?_; rintro e w1 ⟨rfl, hb⟩; first | rw [E1.out] | rw [E2.out]) | (go_at_call 11; refine (put_any _ _).mono ?_; rintro e w1 ⟨rfl, hb⟩) | (go_at_call 13; refine (size_any _ _).mono ?_; rintro e wx ⟨rfl, rfl⟩))
    go_ret
    exact ⟨rfl, by repeat (first | assumption | exact Below.refl _ _ | refine bch ?_ (by assumption))⟩
  · have h' : a < 0 ∨ (0 ≤ a ∧ b ≤ a) ∨ (0 ≤ a ∧ a < b ∧ 72057594037927935 < b) := by omega
    clear h
    rcases h' with h1 | ⟨h0, h1⟩ | ⟨h0, h1, h2⟩
    all_goals
      go_enter Try.func7, Try.ntmps7
      go_wp2_with (go_at_call 8; refine (first_any _).mono ?_; rintro e w1 ⟨rfl, hb⟩)
      go_ret
      exact ⟨rfl, by repeat (first | assumption | exact Below.refl _ _ | refine bch ?_ (by assumption))⟩
end Go.Proofs.Ytejplaffpaoadaa
