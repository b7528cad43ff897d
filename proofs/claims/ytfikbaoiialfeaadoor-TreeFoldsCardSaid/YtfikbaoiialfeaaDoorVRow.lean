/- A block of cells of the call's own: what each cell holds, by a function of its number. -/
import Derived.Test.YtfikbaoiialfeaaDoorGA
import Derived.OwnWalk
import Derived.Below
namespace Go.Proofs.YtfikbaoiialfeaaDoor
open Go.RowKit

/-- Block g has n cells, cell k holds f k; none is frozen. -/
def VR (w : World) (g n : Nat) (f : Nat → Value) : Prop := ∃ cur e, w.heap[g]? = some (.cells cur e (0, 0)) ∧ cur.size = n ∧ ∀ k, k < n → cur[k]? = some (f k)
theorem VR.lt {w : World} {g n : Nat} {f : Nat → Value} (h : VR w g n f) : g < w.heap.size := by
  obtain ⟨cur, e, h1, _⟩ := h
  exact (Array.getElem?_eq_some_iff.1 h1).1
theorem VR.cell {w : World} {g n : Nat} {f : Nat → Value} (h : VR w g n f) {k : Nat} (hk : k < n) : w.cell? ⟨g, k, none⟩ = some (f k) := by
  obtain ⟨cur, e, h1, h2, h3⟩ := h
  unfold World.cell?; rw [h1]; exact h3 k hk
theorem VR.frozen {w : World} {g n : Nat} {f : Nat → Value} (h : VR w g n f) (k : Nat) : w.frozen? ⟨g, k, none⟩ = false := by
  obtain ⟨cur, e, h1, h2, h3⟩ := h
  unfold World.frozen?; rw [h1]; simp
theorem VR.congr {w : World} {g n : Nat} {f f' : Nat → Value} (h : VR w g n f) (e : ∀ k, k < n → f k = f' k) : VR w g n f' := by
  obtain ⟨cur, e', h1, h2, h3⟩ := h
  exact ⟨cur, e', h1, h2, fun k hk => by rw [h3 k hk, e k hk]⟩
theorem VR.set {w : World} {g n : Nat} {f : Nat → Value} (h : VR w g n f) {k : Nat} (v : Value) : VR (w.setCell ⟨g, k, none⟩ v) g n (fun j => if j = k then v else f j) := by
  obtain ⟨cur, e, h1, h2, h3⟩ := h
  refine ⟨cur.setIfInBounds k v, e, ?_, by simpa using h2, fun j hj => ?_⟩
  · simp [World.setCell, Array.getElem?_modify, h1]
  · rw [Array.getElem?_setIfInBounds]
    by_cases hjk : k = j
    · subst hjk; simp [h2, hj]
    · rw [if_neg hjk, h3 j hj]; show _ = some (if j = k then v else f j); rw [if_neg (fun e => hjk e.symm)]
theorem VR.other {w : World} {g n : Nat} {f : Nat → Value} (h : VR w g n f) {a : Addr} (ha : g ≠ a.block) (v : Value) : VR (w.setCell a v) g n f := by
  obtain ⟨cur, e, h1, h2⟩ := h
  exact ⟨cur, e, by rw [Below.heap_setCell _ _ _ _ ha]; exact h1, h2⟩
theorem VR.below {w w' : World} {B g n : Nat} {f : Nat → Value} (h : VR w g n f) (hb : Below B w w') (hg : g < B) : VR w' g n f := by
  obtain ⟨cur, e, h1, h2⟩ := h
  exact ⟨cur, e, by rw [hb.block g hg]; exact h1, h2⟩
theorem VR.drewN {w : World} {g n : Nat} {f : Nat → Value} (h : VR w g n f) (q : Nat) : VR (w.drewN q) g n f := h

theorem wpList_makeV {P : Program} (w : World) {ops : Array Oper} {rest : List Oper} {o : Oper} {a : Act} {Q : Exit → Act → World → Prop}
    (hg : o.guard = none) (l c : Operand) (t : TypeId) (hop : o.op = Op.makeSlice t l c)
    (e : TypeId) (z : Value) (by_ : Nat) (h1 : P.underlying t = some (.slice e)) (h2 : (P.info? e).map (fun i => (i.zero, i.size, i.bytes)) = some (some z, 1, by_)) (hz : z.cells = #[z])
    (L C : Int) (n : Nat) (hl : a.eval l = .int .i64 L) (hc : a.eval c = .int .i64 C) (hL : L = (n : Int)) (hC : C = (n : Int)) (b2 : by_ * n ≤ 281474976710656) (b3 : n ≤ maxLen)
    (hK : ∀ w' g, w.heap.size ≤ g → w'.heap.size = g + 1 → VR w' g n (fun _ => z) → Below w.heap.size w w' → wpList P ops Q rest (a.put o.dst (.slice (some ⟨g, 0, none⟩) n n)) w') :
    wpList P ops Q (o :: rest) a w := by
  obtain ⟨i, hi, hi2⟩ : ∃ i, P.info? e = some i ∧ (i.zero, i.size, i.bytes) = (some z, 1, by_) := by
    cases hh : P.info? e with
    | none => rw [hh] at h2; cases h2
    | some i => rw [hh] at h2; exact ⟨i, rfl, Option.some.inj h2⟩
  obtain ⟨e1, e2, e3⟩ : i.zero = some z ∧ i.size = 1 ∧ i.bytes = by_ := by injection hi2 with q1 q2; injection q2 with q2 q3; exact ⟨q1, q2, q3⟩
  refine wpList_plain hg fun K hK' => ?_
  subst hL
  subst hC
  have hrun := run_make (P := P) w t e i z h1 hi e1 .i64 .i64 (n : Int) (n : Int) (by omega) (by omega) (by rw [e3]; have hh := Int.ofNat_le.2 b2; rw [Int.natCast_mul] at hh; exact hh) (by unfold maxLen at b3; omega)
  unfold Oper.wp
  simp [execOp, hop, hl, hc, hrun, Result.andThen]
  refine hK' _ _ (hK _ w.heap.size (Nat.le_refl _) (by show (w.heap.push _).size = _; rw [Array.size_push]) ⟨madeCells z.cells n, e, ?_, size_madeCells _ _, ?_⟩ (Below.alloc (Below.refl _ _) (Nat.le_refl _) _))
  · show (w.heap.push _)[w.heap.size]? = _
    rw [Array.getElem?_push_size, e2, Nat.mul_one]
  · intro k hk
    rw [hz]
    simp [madeCells, hk, Nat.mod_one]
end Go.Proofs.YtfikbaoiialfeaaDoor
