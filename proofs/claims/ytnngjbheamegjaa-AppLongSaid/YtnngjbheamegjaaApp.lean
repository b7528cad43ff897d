/- app.Answer, app.Taken, ligref12.Answer and the laws of chapter 16. -/
import Derived.Test.YtnngjbheamegjaaRows
import Derived.Test.YtnngjbheamegjaaStr
import Derived.WalkKit
import Derived.ProofKit
import Derived.Handy
import Derived.Below
import Derived.Lib.Hide
import Derived.IntWalk
import Derived.Outline
import Derived.WalkLawsBesides
import Derived.WalkSpells
namespace Go.Proofs.Ytnngjbheamegjaa
open Go.RowKit
attribute [local go_sem] strV

def answerS (l : List UInt8) : List UInt8 := if l = [] ∨ l[0]? = some 33 then [110, 111] else [111, 107, 58] ++ l.take 29
def takenS (l : List UInt8) : Bool := l.take 3 == [111, 107, 58]

set_option maxRecDepth 100000 in
set_option maxHeartbeats 400000 in
theorem answer_any (s : ByteArray) (w : World) (hs : s.size ≤ maxLen) :
    Calls Try.prog 11 #[.string s] w fun e w' => e = .returned (strV (answerS s.data.toList)) ∧ w = w' := by
  unfold maxLen at hs
  by_cases h0 : s.size = 0
  · have he := str_nil h0
    subst he
    go_enter Try.func11, Try.ntmps11
    go_wp2
    go_ret
    exact ⟨rfl, rfl⟩
  · have hpos : 0 < s.size := by omega
    have hne := str_ne'' hpos
    have hne2 := str_ne' hpos
    obtain ⟨b, hb⟩ : ∃ b, s[0] = b := ⟨_, rfl⟩
    have hg := str_get hpos
    rw [hb] at hg
    by_cases h1 : b = 33
    · have hr : answerS s.data.toList = [110, 111] := by unfold answerS; rw [if_pos (.inr (by rw [hg, h1]))]
      subst h1
      have H := Lib.hid hr
      clear hr hg
      go_enter Try.func11, Try.ntmps11
      go_wp2
      go_ret
      exact ⟨by rw [H.out]; rfl, rfl⟩
    · have hr : answerS s.data.toList = [111, 107, 58] ++ s.data.toList.take 29 := by
        unfold answerS; rw [if_neg]; rintro (h | h)
        · exact str_ne hpos h
        · rw [hg] at h; exact h1 (by simpa using h)
      have hb33 : ((b.toNat : Int) == 33) = false := byte_ne (n := 33) (by decide) h1
      have H := Lib.hid hr
      clear hr hg
      by_cases h2 : s.size ≤ 29
      · have HE : Hid (Value.string (⟨#[111, 107, 58]⟩ ++ s) = strV ([111, 107, 58] ++ s.data.toList.take 29)) := Lib.hid (str_eq (by
          rw [str_append, List.take_of_length_le (by rw [str_len]; exact h2)]))
        go_enter Try.func11, Try.ntmps11
        go_wp2
        go_ret
        exact ⟨by rw [H.out, ← HE.out]; rfl, rfl⟩
      · have HE : Hid (Value.string (⟨#[111, 107, 58]⟩ ++ s.extract 0 29) = strV ([111, 107, 58] ++ s.data.toList.take 29)) := Lib.hid (str_eq (by
          rw [str_append, str_take]))
        go_enter Try.func11, Try.ntmps11
        go_wp2
        all_goals go_ret
        all_goals exact ⟨by rw [H.out]; exact congrArg Ending.returned HE.out, rfl⟩

set_option maxRecDepth 100000 in
set_option maxHeartbeats 400000 in
theorem refAnswer_any (s : ByteArray) (w : World) (hs : s.size ≤ maxLen) :
    Calls Try.prog 12 #[.string s] w fun e w' => e = .returned (strV (answerS s.data.toList)) ∧ w = w' := by
  unfold maxLen at hs
  by_cases h0 : s.size = 0
  · have he := str_nil h0
    subst he
    go_enter Try.func12, Try.ntmps12
    go_wp2
    go_ret
    exact ⟨rfl, rfl⟩
  · have hpos : 0 < s.size := by omega
    have hne := str_ne'' hpos
    have hne2 := str_ne' hpos
    obtain ⟨b, hb⟩ : ∃ b, s[0] = b := ⟨_, rfl⟩
    have hg := str_get hpos
    rw [hb] at hg
    by_cases h1 : b = 33
    · have hr : answerS s.data.toList = [110, 111] := by unfold answerS; rw [if_pos (.inr (by rw [hg, h1]))]
      subst h1
      have H := Lib.hid hr
      clear hr hg
      go_enter Try.func12, Try.ntmps12
      go_wp2
      go_ret
      exact ⟨by rw [H.out]; rfl, rfl⟩
    · have hr : answerS s.data.toList = [111, 107, 58] ++ s.data.toList.take 29 := by
        unfold answerS; rw [if_neg]; rintro (h | h)
        · exact str_ne hpos h
        · rw [hg] at h; exact h1 (by simpa using h)
      have hb33 : ((b.toNat : Int) == 33) = false := byte_ne (n := 33) (by decide) h1
      have H := Lib.hid hr
      clear hr hg
      by_cases h2 : s.size ≤ 29
      · have HE : Hid (Value.string (⟨#[111, 107, 58]⟩ ++ s) = strV ([111, 107, 58] ++ s.data.toList.take 29)) := Lib.hid (str_eq (by
          rw [str_append, List.take_of_length_le (by rw [str_len]; exact h2)]))
        go_enter Try.func12, Try.ntmps12
        go_wp2
        go_ret
        exact ⟨by rw [H.out, ← HE.out]; rfl, rfl⟩
      · have HE : Hid (Value.string (⟨#[111, 107, 58]⟩ ++ s.extract 0 29) = strV ([111, 107, 58] ++ s.data.toList.take 29)) := Lib.hid (str_eq (by
          rw [str_append, str_take]))
        go_enter Try.func12, Try.ntmps12
        go_wp2
        all_goals go_ret
        all_goals exact ⟨by rw [H.out]; exact congrArg Ending.returned HE.out, rfl⟩


theorem taken_pre {l : List UInt8} : takenS l = (decide (3 ≤ l.length) && (l.take 3 == [111, 107, 58])) := by
  unfold takenS
  by_cases h : 3 ≤ l.length
  · rw [decide_eq_true h, Bool.true_and]
  · rw [decide_eq_false h, Bool.false_and, beq_eq_false_iff_ne]
    intro e
    have : (l.take 3).length = 3 := by rw [e]; rfl
    rw [List.length_take] at this; omega

set_option maxRecDepth 100000 in
set_option maxHeartbeats 400000 in
theorem taken_any (s : ByteArray) (w : World) (hs : s.size ≤ maxLen) :
    Calls Try.prog 13 #[.string s] w fun e w' => e = .returned (.bool (takenS s.data.toList)) ∧ w = w' := by
  unfold maxLen at hs
  by_cases h : 3 ≤ s.size
  · have hr : takenS s.data.toList = ((s.extract 0 3).toList == [111, 107, 58]) := by
      rw [taken_pre, ByteArray.toList_eq, str_take, str_len, decide_eq_true h, Bool.true_and]
    have H := Lib.hid hr; clear hr
    go_enter Try.func13, Try.ntmps13
    go_wp2
    go_ret
    exact ⟨by rw [H.out]; rfl, rfl⟩
  · have hr : takenS s.data.toList = false := by
      rw [taken_pre, str_len, decide_eq_false h, Bool.false_and]
    have H := Lib.hid hr; clear hr
    go_enter Try.func13, Try.ntmps13
    go_wp2
    go_ret
    exact ⟨by rw [H.out]; rfl, rfl⟩

set_option maxRecDepth 100000 in
set_option maxHeartbeats 800000 in
theorem first16_any (w : World) :
    Calls Try.prog 10 #[] w fun e w' => e = .returned (.bool true) ∧ w = w' := by
  have h1 : Hid (answerS [104, 101, 108, 108, 111] = [111, 107, 58, 104, 101, 108, 108, 111]) := Lib.hid (by decide)
  have h2 : Hid (answerS [33, 120] = [110, 111]) := Lib.hid (by decide)
  go_enter Try.func10, Try.ntmps10
  go_wp2_with (go_at_call 11; refine (answer_any _ _ (by unfold maxLen; decide)).mono ?_; rintro e wx ⟨rfl, rfl⟩; first | rw [show (⟨#[104, 101, 108, 108, 111]⟩ : ByteArray).data.toList = [104, 101, 108, 108, 111] from rfl, h1.out] | rw [show (⟨#[33, 120]⟩ : ByteArray).data.toList = [33, 120] from rfl, h2.out])
  go_ret
  exact ⟨rfl, rfl⟩

set_option maxRecDepth 100000 in
set_option maxHeartbeats 800000 in
theorem walkAppTells (s t : ByteArray) (w : World) (hs : s.size ≤ maxLen) (ht : t.size ≤ maxLen) :
    Calls Try.prog 3 #[.string s, .string t] w fun e w' => e = .returned (.bool true) ∧ Below w.heap.size w w' := by
  have hs' := hs; have ht' := ht; unfold maxLen at hs' ht'
  by_cases h1 : 2000 < s.size
  · go_enter Try.func3, Try.ntmps3
    go_wp2_with (go_at_call 10; refine (first16_any _).mono ?_; rintro e w1 ⟨rfl, rfl⟩)
    go_ret
    exact ⟨rfl, Below.refl _ _⟩
  by_cases h2 : 2000 < t.size
  · go_enter Try.func3, Try.ntmps3
    go_wp2_with (go_at_call 10; refine (first16_any _).mono ?_; rintro e w1 ⟨rfl, rfl⟩)
    go_ret
    exact ⟨rfl, Below.refl _ _⟩
  by_cases h3 : 3 ≤ t.size
  · have hr : takenS t.data.toList = ((t.extract 0 3).toList == [111, 107, 58]) := by
      rw [taken_pre, ByteArray.toList_eq, str_take, str_len, decide_eq_true h3, Bool.true_and]
    go_enter Try.func3, Try.ntmps3
    go_wp2_with (first | (go_at_call 10; refine (first16_any _).mono ?_; rintro e w1 ⟨rfl, rfl⟩) | (go_at_call 11; refine (answer_any _ _ hs).mono ?_; rintro e wx ⟨rfl, rfl⟩) | (go_at_call 12; refine (refAnswer_any _ _ hs).mono ?_; rintro e wx ⟨rfl, rfl⟩) | (go_at_call 13; refine (taken_any _ _ ht).mono ?_; rintro e wx ⟨rfl, rfl⟩))
    go_ret
    exact ⟨rfl, Below.refl _ _⟩
  · have hr : takenS t.data.toList = false := by
      rw [taken_pre, str_len, decide_eq_false h3, Bool.false_and]
    go_enter Try.func3, Try.ntmps3
    go_wp2_with (first | (go_at_call 10; refine (first16_any _).mono ?_; rintro e w1 ⟨rfl, rfl⟩) | (go_at_call 11; refine (answer_any _ _ hs).mono ?_; rintro e wx ⟨rfl, rfl⟩) | (go_at_call 12; refine (refAnswer_any _ _ hs).mono ?_; rintro e wx ⟨rfl, rfl⟩) | (go_at_call 13; refine (taken_any _ _ ht).mono ?_; rintro e wx ⟨rfl, rfl⟩))
    go_ret
    exact ⟨rfl, Below.refl _ _⟩

theorem answer_len (l : List UInt8) : 2 ≤ (answerS l).length ∧ (answerS l).length ≤ 32 := by
  unfold answerS; split
  · simp
  · simp; omega
theorem answer_taken (l : List UInt8) : takenS (answerS l) = !(decide (l = [] ∨ l[0]? = some 33)) := by
  unfold answerS; split
  · rename_i h; rw [decide_eq_true h]; rfl
  · rename_i h; rw [decide_eq_false h]; unfold takenS; simp
theorem answer_more {l m : List UInt8} (h : 29 ≤ l.length) : answerS (l ++ m) = answerS l := by
  unfold answerS
  have h1 : l ++ m ≠ [] := by intro e; rw [List.append_eq_nil_iff] at e; rw [e.1] at h; simp at h
  have h2 : l ≠ [] := by rintro rfl; simp at h
  have h3 : (l ++ m)[0]? = l[0]? := List.getElem?_append_left (by omega)
  rw [h3, List.take_append_of_le_length h]
  simp only [h1, h2, false_or]

set_option maxRecDepth 100000 in
set_option maxHeartbeats 800000 in
theorem walkAppLong (s t : ByteArray) (w : World) (hs : s.size ≤ maxLen) (ht : t.size ≤ maxLen) :
    Calls Try.prog 4 #[.string s, .string t] w fun e w' => e = .returned (.bool true) ∧ Below w.heap.size w w' := by
  have hs' := hs; have ht' := ht; unfold maxLen at hs' ht'
  by_cases h1 : 2000 < s.size
  · go_enter Try.func4, Try.ntmps4
    go_wp2_with (go_at_call 10; refine (first16_any _).mono ?_; rintro e w1 ⟨rfl, rfl⟩)
    go_ret
    exact ⟨rfl, Below.refl _ _⟩
  by_cases h2 : 2000 < t.size
  · go_enter Try.func4, Try.ntmps4
    go_wp2_with (go_at_call 10; refine (first16_any _).mono ?_; rintro e w1 ⟨rfl, rfl⟩)
    go_ret
    exact ⟨rfl, Below.refl _ _⟩
  have hst : (s ++ t).size ≤ maxLen := by rw [ByteArray.size_append]; unfold maxLen; omega
  have ha : (⟨(answerS s.data.toList).toArray⟩ : ByteArray).size ≤ maxLen := by
    rw [str_size]; have := answer_len s.data.toList; unfold maxLen; omega
  obtain ⟨l1, l2⟩ := answer_len s.data.toList
  have HT := Lib.hid (answer_taken s.data.toList)
  have HM : Hid (29 ≤ s.size → answerS (s ++ t).data.toList = answerS s.data.toList) := Lib.hid (fun h => by
    rw [str_append]; exact answer_more (by rw [str_len]; exact h))
  by_cases h0 : s.size = 0
  · have he := str_nil h0
    subst he
    have htk : takenS (answerS ByteArray.empty.data.toList) = false := by rw [HT.out]; rfl
    go_enter Try.func4, Try.ntmps4
    go_wp2_with (first | (go_at_call 10; refine (first16_any _).mono ?_; rintro e w1 ⟨rfl, rfl⟩) | (go_at_call 11; refine (answer_any _ _ (by assumption)).mono ?_; rintro e wx ⟨rfl, rfl⟩) | (go_at_call 13; refine (taken_any _ _ (by assumption)).mono ?_; rintro e wx ⟨rfl, rfl⟩))
    go_ret
    exact ⟨rfl, Below.refl _ _⟩
  · have hpos : 0 < s.size := by omega
    have hne := str_ne'' hpos
    have hne2 := str_ne' hpos
    obtain ⟨b, hb⟩ : ∃ b, s[0] = b := ⟨_, rfl⟩
    have hg := str_get hpos
    rw [hb] at hg
    have hx : decide (s.data.toList = [] ∨ s.data.toList[0]? = some 33) = decide (b = 33) := by
      rw [hg]; simp [str_ne hpos]
    rw [hx] at HT
    clear hx hg
    by_cases h3 : s.size < 29
    · by_cases hb3 : b = 33
      · have htk : takenS (answerS s.data.toList) = false := by rw [HT.out, decide_eq_true hb3]; rfl
        subst hb3
        go_enter Try.func4, Try.ntmps4
        go_wp2_with (first | (go_at_call 10; refine (first16_any _).mono ?_; rintro e w1 ⟨rfl, rfl⟩) | (go_at_call 11; refine (answer_any _ _ (by assumption)).mono ?_; rintro e wx ⟨rfl, rfl⟩) | (go_at_call 13; refine (taken_any _ _ (by assumption)).mono ?_; rintro e wx ⟨rfl, rfl⟩))
        go_ret
        exact ⟨rfl, Below.refl _ _⟩
      · have htk : takenS (answerS s.data.toList) = true := by rw [HT.out, decide_eq_false hb3]; rfl
        have hb33 : ((b.toNat : Int) == 33) = false := byte_ne (n := 33) (by decide) hb3
        have hb34 : ((b.toNat : Int) != 33) = true := by rw [bne, hb33]; rfl
        go_enter Try.func4, Try.ntmps4
        go_wp2_with (first | (go_at_call 10; refine (first16_any _).mono ?_; rintro e w1 ⟨rfl, rfl⟩) | (go_at_call 11; refine (answer_any _ _ (by assumption)).mono ?_; rintro e wx ⟨rfl, rfl⟩) | (go_at_call 13; refine (taken_any _ _ (by assumption)).mono ?_; rintro e wx ⟨rfl, rfl⟩))
        go_ret
        exact ⟨rfl, Below.refl _ _⟩
    · have hm := HM.out (by omega)
      rw [str_append] at hm
      by_cases hb3 : b = 33
      · have htk : takenS (answerS s.data.toList) = false := by rw [HT.out, decide_eq_true hb3]; rfl
        subst hb3
        go_enter Try.func4, Try.ntmps4
        go_wp2_with (first | (go_at_call 10; refine (first16_any _).mono ?_; rintro e w1 ⟨rfl, rfl⟩) | (go_at_call 11; refine (answer_any _ _ (by assumption)).mono ?_; rintro e wx ⟨rfl, rfl⟩) | (go_at_call 13; refine (taken_any _ _ (by assumption)).mono ?_; rintro e wx ⟨rfl, rfl⟩))
        go_ret
        exact ⟨rfl, Below.refl _ _⟩
      · have htk : takenS (answerS s.data.toList) = true := by rw [HT.out, decide_eq_false hb3]; rfl
        have hb33 : ((b.toNat : Int) == 33) = false := byte_ne (n := 33) (by decide) hb3
        have hb34 : ((b.toNat : Int) != 33) = true := by rw [bne, hb33]; rfl
        go_enter Try.func4, Try.ntmps4
        go_wp2_with (first | (go_at_call 10; refine (first16_any _).mono ?_; rintro e w1 ⟨rfl, rfl⟩) | (go_at_call 11; refine (answer_any _ _ (by assumption)).mono ?_; rintro e wx ⟨rfl, rfl⟩) | (go_at_call 13; refine (taken_any _ _ (by assumption)).mono ?_; rintro e wx ⟨rfl, rfl⟩))
        go_ret
        exact ⟨rfl, Below.refl _ _⟩
end Go.Proofs.Ytnngjbheamegjaa
