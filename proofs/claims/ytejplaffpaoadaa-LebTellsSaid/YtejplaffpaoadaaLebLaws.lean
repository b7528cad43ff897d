/- The laws of chapter 1, walked: each returns true. -/
import Derived.Test.YtejplaffpaoadaaRows
import Derived.Test.YtejplaffpaoadaaLebRead2
import Derived.Test.YtejplaffpaoadaaLebEight
import Derived.Test.YtejplaffpaoadaaLebEight2
import Derived.WalkKit
import Derived.ProofKit
import Derived.Handy
import Derived.Below
import Derived.Lib.Hide
import Derived.IntWalk
import Derived.Outline
import Derived.WalkLawsBesides
import Derived.WalkSpells
namespace Go.Proofs.Ytejplaffpaoadaa
open Go.RowKit
attribute [local go_sem] trip strV pairV

set_option maxRecDepth 100000 in
set_option maxHeartbeats 800000 in
theorem first_any (w : World) :
    Calls Try.prog 8 #[] w fun e w' => e = .returned (.bool true) ∧ Below w.heap.size w w' := by
  have h1 : nextS [172, 2] 0 = (300, 2, 0) := by decide
  have h2 : putL 300 = [172, 2] := by decide
  have H1 := Lib.hid h1; have H2 := Lib.hid h2; clear h1 h2
  go_enter Try.func8, Try.ntmps8
  go_wp2_with (first | (go_at_call 9; (refine (next_any _ _ _ (by unfold maxLen; decide)).mono ?_; rintro e wx ⟨rfl, rfl⟩; rw [show (⟨#[172, 2]⟩ : ByteArray).data.toList = [172, 2] from rfl, H1.out])) | (go_at_call 11; refine (put_any _ _).mono ?_; rintro e w1 ⟨rfl, hb⟩; rw [H2.out]) | (go_at_call 13; refine (size_any _ _).mono ?_; rintro e w' ⟨rfl, rfl⟩; rw [H2.out]))
  go_ret
  exact ⟨rfl, by assumption⟩

set_option maxRecDepth 100000 in
set_option maxHeartbeats 800000 in
theorem walkLebTells (v : Int) (s : ByteArray) (a : Int) (w : World) (hs : s.size ≤ maxLen) :
    Calls Try.prog 3 #[.int .i64 v, .string s, .int .i64 a] w fun e w' => e = .returned (.bool true) ∧ Below w.heap.size w w' := by
  have hs' := hs; unfold maxLen at hs'
  by_cases hl : 300 < s.size
  · go_enter Try.func3, Try.ntmps3
    go_wp2_with (go_at_call 8; refine (first_any _).mono ?_; rintro e w1 ⟨rfl, hb⟩)
    go_ret
    exact ⟨rfl, by repeat (first | assumption | exact Below.refl _ _ | refine bch ?_ (by assumption))⟩
  · go_enter Try.func3, Try.ntmps3
    go_wp2_with (first | (go_at_call 8; refine (first_any _).mono ?_; rintro e w1 ⟨rfl, hb⟩) | (go_at_call 9; refine (next_any _ _ _ hs).mono ?_; rintro e wx ⟨rfl, rfl⟩) | (go_at_call 10; refine (nextNum_any _ _ _ hs).mono ?_; rintro e wx ⟨rfl, rfl⟩) | (go_at_call 11; refine (put_any _ _).mono ?_; rintro e w1 ⟨rfl, hb⟩) | (go_at_call 12; refine (putNum_any _ _).mono ?_; rintro e w1 ⟨rfl, hb⟩) | (go_at_call 13; refine (size_any _ _).mono ?_; rintro e wx ⟨rfl, rfl⟩))
    go_goals
    go_ret
    exact ⟨rfl, by repeat (first | assumption | exact Below.refl _ _ | refine bch ?_ (by assumption))⟩
end Go.Proofs.Ytejplaffpaoadaa
