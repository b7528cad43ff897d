/- Slices of integers that came in: what a walk is told of them. -/
import Derived.Test.YtpledhipdiephaaDoorStr
import Derived.SizedLaws
namespace Go.Proofs.YtpledhipdiephaaDoor
open Go.RowKit Go.ChangeShapes Go.WideShapes

/-- A slice of ints: its numbers (of its length), its cells below the heap's end, each number in its kind. -/
structure IntsAt (w : World) (a : Option Addr) (len : Nat) (zs : List Int) : Prop where
  length : zs.length = len
  small : len ≤ maxLen
  cells : len = 0 ∨ ∃ b off, a = some ⟨b, off, none⟩ ∧ b < w.heap.size ∧ ∀ i, i < len → w.cell? ⟨b, off + i, none⟩ = some (.int .i64 (zs.getD i 0))
  wf : ∀ z ∈ zs, -9223372036854775808 ≤ z ∧ z ≤ 9223372036854775807

theorem IntsAt.below {w w' : World} {a : Option Addr} {len : Nat} {zs : List Int} (h : IntsAt w a len zs) (hb : Below w.heap.size w w') : IntsAt w' a len zs := by
  obtain ⟨h1, h0, h2, h3⟩ := h
  refine ⟨h1, h0, ?_, h3⟩
  rcases h2 with h | ⟨b, off, ha, hlt, hc⟩
  · exact .inl h
  · exact .inr ⟨b, off, ha, Nat.lt_of_lt_of_le hlt hb.size, fun i hi => (hb.cell hlt).trans (hc i hi)⟩

theorem IntsAt.cell {w : World} {a : Option Addr} {len : Nat} {zs : List Int} (h : IntsAt w a len zs) {k : Nat} (hk : k < len) :
    ∃ b off, a = some ⟨b, off, none⟩ ∧ b < w.heap.size ∧ w.cell? ⟨b, off + k, none⟩ = some (.int .i64 (zs.getD k 0)) ∧ -9223372036854775808 ≤ zs.getD k 0 ∧ zs.getD k 0 ≤ 9223372036854775807 := by
  obtain ⟨h1, _, h2, h3⟩ := h
  rcases h2 with h | ⟨b, off, ha, hlt, hc⟩
  · omega
  · have hm : zs.getD k 0 ∈ zs := by
      rw [List.getD_eq_getElem?_getD, List.getElem?_eq_getElem (by omega)]; exact List.getElem_mem _
    exact ⟨b, off, ha, hlt, hc k hk, (h3 _ hm).1, (h3 _ hm).2⟩

/-- Out of what opening such a slice gives. -/
theorem intsAt_of {w : World} {a : Option Addr} {len cap : Nat} {zs : List Int}
    (h : (a = none ∧ len = 0 ∧ cap = 0 ∧ zs = []) ∨ ∃ x, a = some x ∧ len ≤ cap ∧ cap ≤ maxLen ∧ zs.length = cap ∧ (∀ i, i < zs.length → w.cell? (x.add i) = some (.int .i64 (zs.getD i 0))) ∧ ∀ n ∈ zs, (Lit.int .i64 n).wf = true) :
    IntsAt w a len (zs.take len) := by
  have bd : ∀ n : Int, (Lit.int .i64 n).wf = true → -9223372036854775808 ≤ n ∧ n ≤ 9223372036854775807 := fun n h => by
    simpa [Lit.wf, IntKind.min, IntKind.max, IntKind.signed, IntKind.bits] using h
  rcases h with ⟨rfl, rfl, rfl, rfl⟩ | ⟨x, rfl, hl, hm, hz, hcell, hwz⟩
  · exact ⟨rfl, Nat.zero_le _, .inl rfl, by simp⟩
  · refine ⟨by rw [List.length_take]; omega, Nat.le_trans hl hm, ?_, fun z hz' => bd z (hwz z (List.mem_of_mem_take hz'))⟩
    rcases Nat.eq_zero_or_pos len with h0 | hpos
    · exact .inl h0
    · right
      obtain ⟨b, off, spot⟩ := x
      have hc := hcell 0 (by omega)
      have hspot : spot = none := by simpa [Addr.add] using World.cell?_spot hc
      subst hspot
      have hlt : b < w.heap.size := by
        rcases Nat.lt_or_ge b w.heap.size with h | h
        · exact h
        · simp [World.cell?, Addr.add, Array.getElem?_eq_none h] at hc
      refine ⟨b, off, rfl, hlt, fun i hi => ?_⟩
      have := hcell i (by omega)
      rw [show (⟨b, off, none⟩ : Addr).add i = ⟨b, off + i, none⟩ from by unfold Addr.add; split <;> simp_all] at this
      rw [this, List.getD_eq_getElem?_getD, List.getD_eq_getElem?_getD, List.getElem?_take, if_pos hi]
end Go.Proofs.YtpledhipdiephaaDoor
