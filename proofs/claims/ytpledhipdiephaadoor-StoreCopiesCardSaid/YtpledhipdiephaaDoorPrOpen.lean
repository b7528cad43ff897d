/- Pairs that come in. -/
import Derived.Test.YtpledhipdiephaaDoorOpen
import Derived.Test.YtpledhipdiephaaDoorSt1
namespace Go.Proofs.YtpledhipdiephaaDoor
open Go.RowKit Go.ChangeShapes Go.WideShapes Go.Deep
theorem Tryd.cellsStrP : Tryd.prog.cellsOf 9 = 1 := by kernel_rfl
theorem recs_ofP {α : Type} (f : α → List Value) (Q : α → Prop) : ∀ (rows : List (List Value)), (∀ r ∈ rows, ∃ p, r = f p ∧ Q p) → ∃ ps : List α, rows.flatten = ps.flatMap f ∧ ps.length = rows.length ∧ ∀ p ∈ ps, Q p := by
  intro rows
  induction rows with
  | nil => intro _; exact ⟨[], rfl, rfl, fun p hp => by cases hp⟩
  | cons r rows ih =>
    intro h
    obtain ⟨p, hp, hq⟩ := h r (List.mem_cons_self ..)
    obtain ⟨ps, h1, h2, h3⟩ := ih (fun r hr => h r (List.mem_cons_of_mem _ hr))
    refine ⟨p :: ps, by rw [List.flatten_cons, List.flatMap_cons, h1, hp], by simp [h2], fun q hq' => ?_⟩
    rcases List.mem_cons.1 hq' with rfl | hq'
    · exact hq
    · exact h3 q hq'
theorem Tryd.cellsPair : Tryd.prog.cellsOf 30 = 2 := by kernel_rfl
section
variable {H : Type} {enc : TypeId × Value → H} {w : World} {base : Nat} {spare : Nat → Bool} {held : Bool}
theorem pair_open {r : List Value} (hl : r.length = Tryd.prog.cellsOf 30) (h : Reads enc Tryd.prog w base spare held 30 r) : ∃ x : Pr, r = x.cells ∧ (x.k.size ≤ maxLen ∧ x.v.size ≤ maxLen) := by
  rw [Tryd.cellsPair] at hl
  match r, hl with
  | [c0, c1], _ =>
    have h0 := h.field Tryd.underlying30 0 _ rfl
    have h1 := h.field Tryd.underlying30 1 _ rfl
    simp [Tryd.cellsStrP] at h0 h1
    obtain ⟨z0, e0, s0⟩ := h0.string Tryd.underlying9
    obtain ⟨z1, e1, s1⟩ := h1.string Tryd.underlying9
    simp at e0 e1
    subst e0 e1
    exact ⟨⟨_, _⟩, rfl, s0, s1⟩
end
end Go.Proofs.YtpledhipdiephaaDoor
