/- A row of a call's own, sorted by slices.SortFunc. -/
import Derived.Test.YtbckncopdkmoeaaLfR
import Derived.Test.YtbckncopdkmoeaaSortF
import Derived.Shelf.SlSortCmp.NoneTotal
import Derived.WalkKit
import Derived.ProofKit
import Derived.Handy
import Derived.Below
import Derived.Lib.Hide
import Derived.IntWalk
import Derived.Outline
import Derived.WalkLawsBesides
import Derived.WalkSpells
namespace Go.Proofs.Ytbckncopdkmoeaa
open Go.RowKit
attribute [local go_sem] strV
set_option linter.unusedVariables false
open Go.Sort Go.Shelf
theorem flat_getK {α : Type} {enc : α → List Value} {k : Nat} (k0 : 0 < k) (hk : ∀ x, (enc x).length = k) : ∀ (l : List α) (t : Nat), (l.flatMap enc)[t]? = (l[t / k]?).bind (fun x => (enc x)[t % k]?) := by
  intro l
  induction l with
  | nil => intro t; simp
  | cons a l ih =>
    intro t
    rw [List.flatMap_cons]
    by_cases h : t < k
    · rw [List.getElem?_append_left (by rw [hk]; exact h), Nat.div_eq_of_lt h, Nat.mod_eq_of_lt h]; simp
    · rw [List.getElem?_append_right (by rw [hk]; omega), hk, ih (t - k)]
      have h1 : t / k = (t - k) / k + 1 := by rw [Nat.div_eq_sub_div k0 (by omega)]
      have h2 : t % k = (t - k) % k := by rw [Nat.mod_eq_sub_mod (by omega)]
      rw [h1, h2]; simp
theorem flatK_list {α : Type} [Inhabited α] {enc : α → List Value} {k : Nat} (k0 : 0 < k) (hk : ∀ x, (enc x).length = k) (l : List α) : flatK enc k l.toArray = (l.flatMap enc).toArray := by
  have hl : (l.flatMap enc).length = l.length * k := by
    induction l with
    | nil => simp
    | cons a l ih => rw [List.flatMap_cons, List.length_append, ih, hk, List.length_cons, Nat.add_mul]; omega
  refine ext_get! (by rw [size_flatK]; simp [hl]) (fun t ht => ?_)
  rw [size_flatK] at ht
  have ht2 : t < l.length * k := by simpa using ht
  rw [get_flatK _ _ _ _ ht]
  have h1 : t / k < l.length := (Nat.div_lt_iff_lt_mul k0).2 ht2
  have h2 : t % k < k := Nat.mod_lt _ k0
  have h3 := flat_getK k0 hk l t
  rw [List.getElem?_eq_getElem h1] at h3
  have h4 : ((l.flatMap enc).toArray)[t]! = ((l.flatMap enc)[t]?).getD default := by simp
  rw [h4, h3]
  have h5 : l.toArray[t / k]! = l[t / k] := by simp [h1]
  rw [h5]
  simp [hk, h2]
theorem sort_own {α : Type} [Inhabited α] {enc : α → List Value} {k : Nat} (k0 : 0 < k) (hk : ∀ x, (enc x).length = k) {w : World} {base g n cap : Nat} {e : TypeId} {ss : List α} (h : w.ownsRow base e k (.slice (some ⟨g, 0, none⟩) n cap) n (ss.flatMap enc)) (hn : ss.length = n) :
    HoldsK enc k w g 0 ss.toArray ∧ g < w.heap.size ∧ ∀ (m : Nat) (os : Array Obj) (ys : List α), ys.length = n → (sortWorldK enc k w g 0 m ys.toArray os).ownsRow base e k (.slice (some ⟨g, 0, none⟩) n cap) n (ys.flatMap enc) ∧ Below base w (sortWorldK enc k w g 0 m ys.toArray os) := by
  obtain ⟨hlen, hown⟩ := h
  rcases hown with ⟨h1, _⟩ | ⟨g2, cap2, cur, hv, hbase, hgb, hnc, hcm, hcs, htk⟩
  · cases h1
  cases hv
  have hgl : g < w.heap.size := row_lt hgb
  refine ⟨?_, hgl, fun m os ys hy => ?_⟩
  · intro j hj
    rw [size_flatK] at hj
    have hj2 : j < n * k := by simpa [hn] using hj
    refine ⟨?_, by simp [World.frozen?, hgb]⟩
    rw [flatK_list k0 hk, Nat.zero_add, cell_heap hgb j]
    have h3 : (cur.toList.take (n * k))[j]? = (ss.flatMap enc)[j]? := by rw [htk]
    rw [List.getElem?_take_of_lt hj2] at h3
    rw [← Array.getElem?_toList, h3]
    have hlt : j < (ss.flatMap enc).length := by rw [hlen]; exact hj2
    rw [List.getElem?_eq_getElem hlt]
    simp [List.getElem?_eq_getElem hlt]
  · have hfl : (ys.flatMap enc).length = n * k := by
      have : ∀ l : List α, (l.flatMap enc).length = l.length * k := by
        intro l
        induction l with
        | nil => simp
        | cons a l ih => rw [List.flatMap_cons, List.length_append, ih, hk, List.length_cons, Nat.add_mul]; omega
      rw [this, hy]
    have hh : (sortWorldK enc k w g 0 m ys.toArray os).heap[g]? = some (.cells (putCells id 0 (ys.flatMap enc).toArray cur) e (0, 0)) := by
      unfold sortWorldK putRowK
      rw [heap_grow_old _ _ (by simpa [putRow, mapBlock, Sort.ahead] using hgl), flatK_list k0 hk]
      simp [putRow, mapBlock, Sort.ahead, Array.getElem?_modify, hgb, onCells]
    refine ⟨⟨hfl, .inr ⟨g, cap, _, rfl, hbase, hh, hnc, hcm, by simpa [putCells] using hcs, ?_⟩⟩, ?_⟩
    · have hcl : n * k ≤ cur.toList.length := by
        rw [Array.length_toList, hcs]; exact Nat.mul_le_mul_right k hnc
      apply List.ext_getElem?
      intro j
      by_cases hj : j < n * k
      · rw [List.getElem?_take_of_lt hj]
        have hjc : j < cur.size := by rw [Array.length_toList] at hcl; omega
        simp [putCells, hjc, hfl, hj]
      · rw [List.getElem?_eq_none (by rw [List.length_take]; omega), List.getElem?_eq_none (by omega)]
    · unfold sortWorldK putRowK
      refine ⟨rfl, rfl, rfl, by simp [putRow, mapBlock, Sort.ahead], fun i hi => ?_⟩
      rw [heap_grow_old _ _ (by simp [putRow, mapBlock, Sort.ahead]; omega)]
      simp only [putRow, mapBlock, Sort.ahead, Array.getElem?_modify]
      rw [if_neg (by omega)]
end Go.Proofs.Ytbckncopdkmoeaa
