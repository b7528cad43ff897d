/- Ways and folds: the math. -/
import Derived.Test.YtfikbaoiialfeaaDoorTop
namespace Go.Proofs.YtfikbaoiialfeaaDoor
open Go.RowKit
set_option linter.unusedVariables false
/-- The hashes beside the path from leaf i to the top, the lowest one first. -/
def wayH (l : List H32) (i : Nat) : List H32 :=
  if h : 2 ≤ l.length ∧ i < l.length then
    (if i < halfN l.length then wayH (l.take (halfN l.length)) i ++ [topH (l.drop (halfN l.length))] else wayH (l.drop (halfN l.length)) (i - halfN l.length) ++ [topH (l.take (halfN l.length))])
  else []
termination_by l.length
decreasing_by
  · rw [List.length_take]; have := halfN_lt h.1; omega
  · rw [List.length_drop]; have := halfN_pos l.length; omega
theorem wayH_none {l : List H32} {i : Nat} (h : ¬ (2 ≤ l.length ∧ i < l.length)) : wayH l i = [] := by rw [wayH, dif_neg h]
theorem wayH_left {l : List H32} {i : Nat} (h : 2 ≤ l.length) (hi : i < halfN l.length) : wayH l i = wayH (l.take (halfN l.length)) i ++ [topH (l.drop (halfN l.length))] := by
  have := halfN_lt h
  conv => lhs; rw [wayH]
  rw [dif_pos ⟨h, by omega⟩, if_pos hi]
theorem wayH_right {l : List H32} {i : Nat} (h : 2 ≤ l.length) (h2 : i < l.length) (hi : ¬ i < halfN l.length) : wayH l i = wayH (l.drop (halfN l.length)) (i - halfN l.length) ++ [topH (l.take (halfN l.length))] := by
  conv => lhs; rw [wayH]
  rw [dif_pos ⟨h, h2⟩, if_neg hi]
/-- The top out of a leaf and its way. -/
def foldH (n i : Nat) (x : H32) (w : List H32) : H32 :=
  if h : 2 ≤ n then (if i < halfN n then nodeH (foldH (halfN n) i x w.dropLast) (w.getLastD zeroH) else nodeH (w.getLastD zeroH) (foldH (n - halfN n) (i - halfN n) x w.dropLast)) else x
termination_by n
decreasing_by
  · exact halfN_lt h
  · have := halfN_pos n; omega
theorem foldH_one {n : Nat} (h : n < 2) (i : Nat) (x : H32) (w : List H32) : foldH n i x w = x := by rw [foldH, dif_neg (by omega)]
theorem foldH_left {n i : Nat} (h : 2 ≤ n) (hi : i < halfN n) (x : H32) (w : List H32) : foldH n i x w = nodeH (foldH (halfN n) i x w.dropLast) (w.getLastD zeroH) := by
  conv => lhs; rw [foldH]
  rw [dif_pos h, if_pos hi]
theorem foldH_right {n i : Nat} (h : 2 ≤ n) (hi : ¬ i < halfN n) (x : H32) (w : List H32) : foldH n i x w = nodeH (w.getLastD zeroH) (foldH (n - halfN n) (i - halfN n) x w.dropLast) := by
  conv => lhs; rw [foldH]
  rw [dif_pos h, if_neg hi]
theorem way_len : ∀ (m : Nat) (l : List H32) (i : Nat), l.length = m → i < m → (wayH l i).length = deepN m i := by
  intro m
  induction m using Nat.strongRecOn with
  | _ m ih =>
    intro l i hl hi
    by_cases h2 : 2 ≤ m
    · have h1 := halfN_lt h2
      have h0 := halfN_pos m
      by_cases hh : i < halfN m
      · rw [wayH_left (by omega) (by rw [hl]; exact hh), hl, List.length_append, deepN_left h2 hh, ih _ h1 (l.take (halfN m)) i (by rw [List.length_take]; omega) hh, List.length_singleton, Nat.add_comm]
      · rw [wayH_right (by omega) (by omega) (by rw [hl]; exact hh), hl, List.length_append, deepN_right h2 hh, ih (m - halfN m) (by omega) (l.drop (halfN m)) (i - halfN m) (by rw [List.length_drop]; omega) (by omega), List.length_singleton, Nat.add_comm]
    · rw [wayH_none (by omega), deepN_small (by omega)]; rfl
theorem way_set : ∀ (m : Nat) (l : List H32) (i : Nat) (x : H32), l.length = m → wayH (l.set i x) i = wayH l i := by
  intro m
  induction m using Nat.strongRecOn with
  | _ m ih =>
    intro l i x hl
    by_cases h2 : 2 ≤ m ∧ i < m
    · have h1 := halfN_lt h2.1
      have h0 := halfN_pos m
      by_cases hh : i < halfN m
      · rw [wayH_left (l := l.set i x) (by rw [List.length_set]; omega) (by rw [List.length_set, hl]; exact hh), wayH_left (l := l) (by omega) (by rw [hl]; exact hh), List.length_set, hl, List.take_set, ih _ h1 (l.take (halfN m)) i x (by rw [List.length_take]; omega), List.drop_set, if_pos hh]
      · rw [wayH_right (l := l.set i x) (by rw [List.length_set]; omega) (by rw [List.length_set]; omega) (by rw [List.length_set, hl]; exact hh), wayH_right (l := l) (by omega) (by omega) (by rw [hl]; exact hh), List.length_set, hl, List.drop_set, if_neg hh, ih (m - halfN m) (by omega) (l.drop (halfN m)) (i - halfN m) x (by rw [List.length_drop]; omega), List.take_set, List.set_eq_of_length_le (l := l.take (halfN m)) (by rw [List.length_take]; omega)]
    · rw [wayH_none (by rw [List.length_set]; omega), wayH_none (by omega)]
theorem fold_way : ∀ (m : Nat) (l : List H32) (i : Nat) (x : H32), l.length = m → i < m → foldH m i x (wayH l i) = topH (l.set i x) := by
  intro m
  induction m using Nat.strongRecOn with
  | _ m ih =>
    intro l i x hl hi
    by_cases h2 : 2 ≤ m
    · have h1 := halfN_lt h2
      have h0 := halfN_pos m
      by_cases hh : i < halfN m
      · rw [wayH_left (by omega) (by rw [hl]; exact hh), hl, foldH_left h2 hh, List.dropLast_concat, ih _ h1 (l.take (halfN m)) i x (by rw [List.length_take]; omega) hh, topH_two (l := l.set i x) (by rw [List.length_set]; omega), List.length_set, hl, List.take_set, List.drop_set, if_pos hh]
        simp
      · rw [wayH_right (by omega) (by omega) (by rw [hl]; exact hh), hl, foldH_right h2 hh, List.dropLast_concat, ih (m - halfN m) (by omega) (l.drop (halfN m)) (i - halfN m) x (by rw [List.length_drop]; omega) (by omega), topH_two (l := l.set i x) (by rw [List.length_set]; omega), List.length_set, hl, List.take_set, List.drop_set, if_neg hh, List.set_eq_of_length_le (l := l.take (halfN m)) (by rw [List.length_take]; omega)]
        simp
    · obtain rfl : m = 1 := by omega
      obtain rfl : i = 0 := by omega
      obtain ⟨q, rfl⟩ := List.length_eq_one_iff.1 hl
      rw [foldH_one (by omega), List.set_cons_zero, topH_one]
end Go.Proofs.YtfikbaoiialfeaaDoor
