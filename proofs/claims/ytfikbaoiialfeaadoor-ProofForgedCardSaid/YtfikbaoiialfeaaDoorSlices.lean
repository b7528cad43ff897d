/- Slices of integers that came in: what a walk is told of them. -/
import Derived.Test.YtfikbaoiialfeaaDoorGA
import Derived.SizedLaws
namespace Go.Proofs.YtfikbaoiialfeaaDoor
open Go.RowKit Go.ChangeShapes Go.WideShapes

/-- A slice of ints: its numbers (of its length), its cells below the heap's end, each number in its kind. -/
structure IntsAt (w : World) (a : Option Addr) (len : Nat) (zs : List Int) : Prop where
  length : zs.length = len
  small : len ≤ maxLen
  cells : len = 0 ∨ ∃ b off, a = some ⟨b, off, none⟩ ∧ b < w.heap.size ∧ ∀ i, i < len → w.cell? ⟨b, off + i, none⟩ = some (.int .i64 (zs.getD i 0))
  wf : ∀ z ∈ zs, -9223372036854775808 ≤ z ∧ z ≤ 9223372036854775807

theorem IntsAt.below {w w' : World} {a : Option Addr} {len : Nat} {zs : List Int} (h : IntsAt w a len zs) (hb : Below w.heap.size w w') : IntsAt w' a len zs := by
  obtain ⟨h1, h0, h2, h3⟩ := h
  refine ⟨h1, h0, ?_, h3⟩
  rcases h2 with h | ⟨b, off, ha, hlt, hc⟩
  · exact .inl h
  · exact .inr ⟨b, off, ha, Nat.lt_of_lt_of_le hlt hb.size, fun i hi => (hb.cell hlt).trans (hc i hi)⟩

theorem IntsAt.cell {w : World} {a : Option Addr} {len : Nat} {zs : List Int} (h : IntsAt w a len zs) {k : Nat} (hk : k < len) :
    ∃ b off, a = some ⟨b, off, none⟩ ∧ b < w.heap.size ∧ w.cell? ⟨b, off + k, none⟩ = some (.int .i64 (zs.getD k 0)) ∧ -9223372036854775808 ≤ zs.getD k 0 ∧ zs.getD k 0 ≤ 9223372036854775807 := by
  obtain ⟨h1, _, h2, h3⟩ := h
  rcases h2 with h | ⟨b, off, ha, hlt, hc⟩
  · omega
  · have hm : zs.getD k 0 ∈ zs := by
      rw [List.getD_eq_getElem?_getD, List.getElem?_eq_getElem (by omega)]; exact List.getElem_mem _
    exact ⟨b, off, ha, hlt, hc k hk, (h3 _ hm).1, (h3 _ hm).2⟩

end Go.Proofs.YtfikbaoiialfeaaDoor
