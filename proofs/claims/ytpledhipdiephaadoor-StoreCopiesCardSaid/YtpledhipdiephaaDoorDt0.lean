/- Stores into a row that the call owns, into a block of cells. -/
import Derived.Test.YtpledhipdiephaaDoorRegT
import Derived.Below
import Derived.OneCell
import Derived.Laws.IdiomCopy
import Derived.Deep.MidRow
namespace Go.Proofs.YtpledhipdiephaaDoor
open Go.RowKit
theorem cells_put {w : World} {d j : Nat} {R : Array Value} {t : TypeId} (h : w.heap[d]? = some (.cells R t (0, 0))) (v : Value) : (w.setCell ⟨d, j, none⟩ v).heap[d]? = some (.cells (R.setIfInBounds j v) t (0, 0)) := by
  have hlt := (Array.getElem?_eq_some_iff.1 h).1
  have h' : w.heap[d] = .cells R t (0, 0) := by simpa [Array.getElem?_eq_getElem hlt] using h
  show (w.heap.modify d _)[d]? = _
  rw [Array.getElem?_eq_getElem (by simpa using hlt), Array.getElem_modify_self, h']
  rfl
theorem grown_put (w : World) (d j : Nat) (v : Value) : w.grownBy (w.setCell ⟨d, j, none⟩ v) (some d) := by
  refine ⟨rfl, rfl, rfl, ?_, fun i hi hne => ?_⟩
  · show w.heap.size ≤ (w.heap.modify d _).size
    rw [Array.size_modify]; exact Nat.le_refl _
  · show (w.heap.modify d _)[i]? = _
    rw [Array.getElem?_modify, if_neg (fun e => hne (by rw [e]))]
theorem grown_trD {w w1 w2 : World} {r : Option Nat} (h : w.grownBy w1 r) (k : w1.grownBy w2 r) : w.grownBy w2 r :=
  ⟨k.os.trans h.os, k.tape.trans h.tape, k.output.trans h.output, Nat.le_trans h.size k.size, fun i hi hne => (k.block i (Nat.lt_of_lt_of_le hi h.size) hne).trans (h.block i hi hne)⟩
theorem own_put {w : World} {B g n c sz : Nat} {e : TypeId} {xs : List Value} (h : w.ownsRow B e sz (.slice (some ⟨g, 0, none⟩) n c) n xs) (j : Nat) (v : Value) : (w.setCell ⟨g, j, none⟩ v).ownsRow B e sz (.slice (some ⟨g, 0, none⟩) n c) n (xs.set j v) := by
  refine ⟨by rw [List.length_set]; exact h.1, ?_⟩
  rcases h.2 with ⟨e0, _⟩ | ⟨g', cap', cur, e0, hb, hg, hn, hm, hs, ht⟩
  · cases e0
  · injection e0 with e1 _ e3
    injection e1 with e1
    injection e1 with e1
    subst e1; subst e3
    refine .inr ⟨g, c, cur.setIfInBounds j v, rfl, hb, cells_put hg v, hn, hm, by rw [Array.size_setIfInBounds]; exact hs, ?_⟩
    rw [← ht]
    apply List.ext_getElem?
    intro i
    rw [Array.toList_setIfInBounds, List.getElem?_take, List.getElem?_set, List.getElem?_set, List.getElem?_take]
    by_cases hi : i < n * sz
    · rw [if_pos hi]
      by_cases hji : j = i
      · subst hji
        rw [if_pos rfl, if_pos rfl]
        have h1 : j < cur.toList.length ↔ j < (List.take (n * sz) cur.toList).length := by
          rw [List.length_take]
          omega
        by_cases h2 : j < cur.toList.length
        · rw [if_pos h2, if_pos (h1.1 h2)]
        · rw [if_neg h2, if_neg (fun q => h2 (h1.2 q))]
      · rw [if_neg hji, if_neg hji, if_pos hi]
    · rw [if_neg hi]
      by_cases hji : j = i
      · subst hji
        rw [if_pos rfl, if_neg (by rw [List.length_take]; omega)]
      · rw [if_neg hji, if_neg hi]
/-- A list with another's elements from o on. -/
def putL {α : Type} : List α → Nat → List α → List α
  | xs, _, [] => xs
  | xs, o, v :: r => putL (xs.set o v) (o + 1) r
theorem putL_length {α : Type} : ∀ (vs : List α) (xs : List α) (o : Nat), (putL xs o vs).length = xs.length
  | [], _, _ => rfl
  | v :: r, xs, o => by rw [putL, putL_length r, List.length_set]
theorem putL_get {α : Type} : ∀ (vs : List α) (xs : List α) (o i : Nat), o + vs.length ≤ xs.length → (putL xs o vs)[i]? = if o ≤ i ∧ i < o + vs.length then vs[i - o]? else xs[i]?
  | [], xs, o, i, _ => by rw [putL, if_neg (by simp only [List.length_nil]; omega)]
  | v :: r, xs, o, i, h => by
    simp only [List.length_cons] at h ⊢
    rw [putL, putL_get r (xs.set o v) (o + 1) i (by rw [List.length_set]; omega)]
    by_cases h1 : o + 1 ≤ i ∧ i < o + 1 + r.length
    · rw [if_pos h1, if_pos (by omega), show i - o = (i - (o + 1)) + 1 by omega, List.getElem?_cons_succ]
    · rw [if_neg h1]
      by_cases h2 : i = o
      · subst h2
        rw [if_pos (by omega), Nat.sub_self, List.getElem?_cons_zero, List.getElem?_set, if_pos rfl, if_pos (by omega)]
      · rw [if_neg (by omega), List.getElem?_set, if_neg (fun q => h2 q.symm)]
theorem own_puts {B g n c sz : Nat} {e : TypeId} : ∀ (vs : List Value) {w : World} {xs : List Value} (_ : w.ownsRow B e sz (.slice (some ⟨g, 0, none⟩) n c) n xs) (o : Nat), (w.setCells g o vs).ownsRow B e sz (.slice (some ⟨g, 0, none⟩) n c) n (putL xs o vs)
  | [], _, _, h, _ => h
  | v :: r, _, _, h, o => own_puts r (own_put h o v) (o + 1)
set_option linter.unusedVariables false in
theorem grown_puts (d : Nat) : ∀ (vs : List Value) (w : World) (o : Nat), w.grownBy (w.setCells d o vs) (some d)
  | [], w, _ => ⟨rfl, rfl, rfl, Nat.le_refl _, fun _ _ _ => rfl⟩
  | v :: r, w, o => grown_trD (grown_put w d o v) (grown_puts d r _ (o + 1))
/-- A row of rows of K cells each, one of them changed. -/
theorem put_flat {α : Type} {L : α → List Value} {K : Nat} (hl : ∀ x, (L x).length = K) (hK : 0 < K) (e : α) : ∀ (es : List α) (i : Nat), i < es.length → putL (es.flatMap L) (i * K) (L e) = (es.set i e).flatMap L := by
  intro es i hi
  have hlen : ∀ l : List α, (l.flatMap L).length = l.length * K := by
    intro l
    induction l with
    | nil => simp
    | cons x l ih => rw [List.flatMap_cons, List.length_append, ih, hl, List.length_cons, Nat.add_mul, Nat.one_mul, Nat.add_comm]
  have hsub : i * K + K ≤ es.length * K := by
    have := Nat.mul_le_mul_right K hi
    rw [Nat.succ_mul] at this
    exact this
  have hget : ∀ (l : List α) (j : Nat), (l.flatMap L)[j]? = (l[j / K]?).bind fun x => (L x)[j % K]? := by
    intro l
    induction l with
    | nil => intro j; simp
    | cons x l ih =>
      intro j
      rw [List.flatMap_cons]
      by_cases hj : j < K
      · rw [List.getElem?_append_left (by rw [hl]; exact hj), Nat.div_eq_of_lt hj, Nat.mod_eq_of_lt hj]; rfl
      · have hj' : K ≤ j := by omega
        rw [List.getElem?_append_right (by rw [hl]; exact hj'), hl, ih (j - K)]
        have e1 : j / K = (j - K) / K + 1 := Nat.div_eq_sub_div hK hj'
        have e2 : j % K = (j - K) % K := Nat.mod_eq_sub_mod hj'
        rw [e1, e2, List.getElem?_cons_succ]
  apply List.ext_getElem?
  intro j
  rw [putL_get _ _ _ _ (by rw [hl, hlen]; exact hsub), hl, hget es j, hget (es.set i e) j, List.getElem?_set]
  by_cases h1 : i * K ≤ j ∧ j < i * K + K
  · have hd : j / K = i := by
      refine Nat.div_eq_of_lt_le ?_ ?_
      · exact h1.1
      · rw [Nat.succ_mul]; exact h1.2
    have hm : j % K = j - i * K := by rw [Nat.mod_eq_sub_mul_div, hd, Nat.mul_comm]
    rw [if_pos h1, hd, if_pos rfl, if_pos hi, hm]; rfl
  · have hd : i ≠ j / K := by
      intro q
      apply h1
      have e1 := Nat.div_mul_le_self j K
      have e2 := Nat.mod_lt j hK
      have e3 := Nat.div_add_mod j K
      rw [Nat.mul_comm] at e3
      rw [q]
      exact ⟨e1, by omega⟩
    rw [if_neg h1, if_neg hd]
theorem own_grown {w w' : World} {B d sz n : Nat} {e t : TypeId} {v : Value} {xs : List Value} {R : Array Value} {fz : Nat × Nat} (h : w.ownsRow B e sz v n xs) (hg : w.grownBy w' (some d)) (hd : w.heap[d]? = some (.cells R t fz)) (hne : t ≠ e) : w'.ownsRow B e sz v n xs := by
  refine h.kept hg (.inr (fun q => ?_))
  rcases h.2 with ⟨rfl, _⟩ | ⟨g, cap, cur, rfl, _, hgg, _⟩
  · simp [Value.ownBlock] at q
  · simp [Value.ownBlock] at q
    subst q
    rw [hd] at hgg
    cases hgg
    exact hne rfl
end Go.Proofs.YtpledhipdiephaaDoor
