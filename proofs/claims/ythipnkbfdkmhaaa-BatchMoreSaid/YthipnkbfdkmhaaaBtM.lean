/- Cutting under larger limits: nothing more is skipped. -/
import Derived.Test.YthipnkbfdkmhaaaBt2
namespace Go.Proofs.Ythipnkbfdkmhaaa
open Go.RowKit
set_option linter.unusedVariables false
theorem cutStep_sk (l fst : Int × Int × Int) (poss : Bool) (g : Int) (s : CutS) (i : Nat) (m : MsgV) : (cutStep l fst poss g s i m).sk = if cutOut l fst poss g s.br m = true then s.sk ++ [(i : Int)] else s.sk := by
  unfold cutStep
  split
  · rfl
  · split
    · rfl
    · split <;> rfl
theorem cutStep_br (l fst : Int × Int × Int) (poss : Bool) (g : Int) (s : CutS) (i : Nat) (m : MsgV) : (cutStep l fst poss g s i m).br = if cutOut l fst poss g s.br m = true then (if 0 < g then s.br ++ [g] else s.br) else s.br := by
  unfold cutStep
  split
  · rfl
  · split
    · rfl
    · split <;> rfl
def limLe (l l' : Int × Int × Int) : Prop := l.1 ≤ l'.1 ∧ l.2.1 ≤ l'.2.1 ∧ l.2.2 ≤ l'.2.2
theorem inL_more {l l' x : Int × Int × Int} (h : limLe l l') (hi : inL l x = true) : inL l' x = true := by
  unfold inL withinB at hi ⊢
  rw [Bool.and_eq_true, Bool.and_eq_true, decide_eq_true_eq, decide_eq_true_eq, decide_eq_true_eq] at hi ⊢
  obtain ⟨h1, h2, h3⟩ := h
  obtain ⟨⟨i1, i2⟩, i3⟩ := hi
  exact ⟨⟨by omega, by omega⟩, by omega⟩
theorem cutOut_more {l l' fst : Int × Int × Int} {poss : Bool} {g : Int} {br br' : List Int} {m : MsgV} (h : limLe l l') (hb : ∀ g, 0 < br'.count g → 0 < br.count g) (ho : cutOut l' fst poss g br' m = true) : cutOut l fst poss g br m = true := by
  unfold cutOut at ho ⊢
  rw [Bool.or_eq_true, Bool.or_eq_true, Bool.or_eq_true, decide_eq_true_eq] at ho ⊢
  rcases ho with ((ho | ho) | ho) | ho
  · exact .inl (.inl (.inl ho))
  · exact .inl (.inl (.inr ho))
  · refine .inl (.inr ?_)
    cases hi : inL l (addL fst (wL m)) with
    | false => rfl
    | true => rw [inL_more h hi] at ho; exact ho
  · exact .inr (hb g ho)
theorem cutK_more {l l' : Int × Int × Int} (h : limLe l l') (up : List MsgV) (gs : List Int) (ms : List MsgV) : ∀ k : Nat, List.Sublist (cutK l' up gs ms k).sk (cutK l up gs ms k).sk ∧ ∀ g, 0 < (cutK l' up gs ms k).br.count g → 0 < (cutK l up gs ms k).br.count g := by
  intro k
  induction k with
  | zero => exact ⟨List.Sublist.refl _, fun g hg => hg⟩
  | succ k ih =>
    obtain ⟨i1, i2⟩ := ih
    unfold cutK
    cases hm : ms[k]? with
    | none => exact ⟨i1, i2⟩
    | some m =>
      simp only []
      rw [cutStep_sk, cutStep_sk, cutStep_br, cutStep_br]
      generalize groupF gs ms.length k = g0
      generalize cutK l' up gs ms k = A at i1 i2
      generalize cutK l up gs ms k = B at i1 i2
      by_cases o1 : cutOut l' (beginL up).1 (beginL up).2 g0 A.br m = true
      · have o2 := cutOut_more h i2 o1
        rw [if_pos o1, if_pos o2, if_pos o1, if_pos o2]
        refine ⟨i1.append (List.Sublist.refl _), fun g hg => ?_⟩
        split at hg
        · rename_i hg0
          rw [if_pos hg0]
          rw [List.count_append] at hg ⊢
          by_cases h9 : 0 < A.br.count g
          · have := i2 g h9; omega
          · omega
        · rename_i hg0
          rw [if_neg hg0]
          exact i2 g hg
      · rw [if_neg o1, if_neg o1]
        by_cases o2 : cutOut l (beginL up).1 (beginL up).2 g0 B.br m = true
        · rw [if_pos o2, if_pos o2]
          refine ⟨i1.trans (List.sublist_append_left _ _), fun g hg => ?_⟩
          have := i2 g hg
          split
          · rw [List.count_append]; omega
          · exact this
        · rw [if_neg o2, if_neg o2]
          exact ⟨i1, i2⟩
theorem cutF_more {l l' : Int × Int × Int} (h : limLe l l') (up ms : List MsgV) (gs : List Int) : List.Sublist (cutF l' up ms gs).2 (cutF l up ms gs).2 := (cutK_more h up gs ms ms.length).1
end Go.Proofs.Ythipnkbfdkmhaaa
