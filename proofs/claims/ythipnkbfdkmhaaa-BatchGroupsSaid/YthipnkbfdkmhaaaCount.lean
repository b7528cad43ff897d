/- A count that is read. -/
import Derived.Test.YthipnkbfdkmhaaaCodec
namespace Go.Proofs.Ythipnkbfdkmhaaa
open Go.RowKit
set_option linter.unusedVariables false
theorem countF_num {s : ByteArray} {a m : Int} (h : (numF s a 0 m).2.2 = 0) : countF s a m = numF s a 0 m := by
  obtain ⟨v, n, er, hx⟩ : ∃ v n er, nextS s.data.toList a = (v, n, er) := ⟨_, _, _, rfl⟩
  unfold numF at h ⊢
  unfold countF
  rw [hx] at h ⊢
  simp only at h ⊢
  by_cases he : er = 0
  · subst he
    simp only [if_pos] at h ⊢
    by_cases hv : v < 0 ∨ m < v
    · rw [if_pos hv] at h; simp at h
    · rw [if_neg hv, if_neg (by omega)]
  · simp only [if_neg he]
theorem countF_back {s : ByteArray} {a m : Int} (h : (countF s a m).2.2 = 0) : numF s a 0 m = countF s a m := by
  obtain ⟨v, n, er, hx⟩ : ∃ v n er, nextS s.data.toList a = (v, n, er) := ⟨_, _, _, rfl⟩
  unfold countF at h ⊢
  unfold numF
  rw [hx] at h ⊢
  simp only at h ⊢
  by_cases he : er = 0
  · subst he
    simp only [if_pos] at h ⊢
    obtain ⟨i, k, y, e1, e2, e3, _⟩ := next_ok hx
    by_cases hv : m < v
    · rw [if_pos hv] at h; simp at h
    · rw [if_neg hv, if_neg (by omega)]
  · simp only [if_neg he]
theorem count_codec (hi : Int) (h1 : hi ≤ 72057594037927935) : Codec (fun s a e => countG s a e hi) putL (fun n => 0 ≤ n ∧ n ≤ hi) := by
  have N := num_codec 0 hi (by decide) h1
  refine ⟨fun {s A B x} hx hs => ?_, fun {s A x k} hx hs hk => ?_, fun {s a e} he => ?_, fun {s i a' x} hi' h => ?_⟩
  · have g : numG s A.length 0 0 hi = _ := N.good hx hs
    unfold numG at g
    rw [if_pos rfl] at g
    show countG s A.length 0 hi = _
    unfold countG
    rw [if_pos rfl, countF_num (by rw [g]), g]
  · obtain ⟨n, rfl⟩ : ∃ n : Nat, x = n := ⟨x.toNat, by omega⟩
    have hn := next_cuts (A := A) (x := n) (by omega) hk
    rw [← hs] at hn
    show (countG s A.length 0 hi).2.2 = 2
    unfold countG countF
    rw [if_pos rfl, hn]
    rfl
  · show (countG s a e hi).2.2 = e
    unfold countG
    rw [if_neg he]
  · have h' : countG s i 0 hi = (x, a', 0) := h
    unfold countG at h'
    rw [if_pos rfl] at h'
    have g : numG s i 0 0 hi = (x, a', 0) := by
      unfold numG
      rw [if_pos rfl, countF_back (by rw [h']), h']
    exact N.back hi' g
end Go.Proofs.Ythipnkbfdkmhaaa
