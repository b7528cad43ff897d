/- Lists of items and of booleans that come in. -/
import Derived.Test.YthipnkbfdkmhaaaGJ
import Derived.Test.YthipnkbfdkmhaaaGr3
namespace Go.Proofs.Ythipnkbfdkmhaaa
open Go.RowKit Go.ChangeShapes Go.WideShapes Go.Deep
theorem Try.cellsItem : Try.prog.cellsOf 72 = 5 := by kernel_rfl
theorem recs_ofI {α : Type} (f : α → List Value) (Q : α → Prop) : ∀ (rows : List (List Value)), (∀ r ∈ rows, ∃ p, r = f p ∧ Q p) → ∃ ps : List α, rows.flatten = ps.flatMap f ∧ ps.length = rows.length ∧ ∀ p ∈ ps, Q p := by
  intro rows
  induction rows with
  | nil => intro _; exact ⟨[], rfl, rfl, fun p hp => by cases hp⟩
  | cons r rows ih =>
    intro h
    obtain ⟨p, hp, hq⟩ := h r (List.mem_cons_self ..)
    obtain ⟨ps, h1, h2, h3⟩ := ih (fun r hr => h r (List.mem_cons_of_mem _ hr))
    refine ⟨p :: ps, by rw [List.flatten_cons, List.flatMap_cons, h1, hp], by simp [h2], fun q hq' => ?_⟩
    rcases List.mem_cons.1 hq' with rfl | hq'
    · exact hq
    · exact h3 q hq'
section
variable {H : Type} {enc : TypeId × Value → H} {w : World} {base : Nat} {spare : Nat → Bool} {held : Bool}
theorem item_open {r : List Value} (hl : r.length = Try.prog.cellsOf 72) (h : Reads enc Try.prog w base spare held 72 r) : ∃ x : ItV, r = itL x ∧ x.wf := by
  rw [Try.cellsItem] at hl
  match r, hl with
  | [c0, c1, c2, c3, c4], _ =>
    have h0 := h.field Try.underlying72 0 _ rfl
    have h1 := h.field Try.underlying72 1 _ rfl
    have h2 := h.field Try.underlying72 2 _ rfl
    have h3 := h.field Try.underlying72 3 _ rfl
    simp [Try.cellsInt, Try.cellsEn] at h0 h1 h2 h3
    obtain ⟨z0, e0, w0⟩ := h0.int Try.underlying3
    obtain ⟨z1, e1, w1⟩ := h1.int Try.underlying3
    obtain ⟨ep, ec, e2, s2, ca, cb⟩ := end_open (by rw [Try.cellsEn]; rfl) h2
    obtain ⟨z3, e3, w3⟩ := h3.int Try.underlying3
    simp at e0 e1 e2 e3
    subst e0 e1 e3
    obtain ⟨rfl, rfl⟩ := e2
    exact ⟨⟨_, _, _, _, _⟩, rfl, w0, w1, s2, wf_i64 ca cb, w3⟩
end
end Go.Proofs.Ythipnkbfdkmhaaa
