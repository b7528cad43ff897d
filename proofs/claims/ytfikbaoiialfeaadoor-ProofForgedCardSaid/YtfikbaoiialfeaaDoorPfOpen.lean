/- Proofs and pairs that come in. -/
import Derived.Test.YtfikbaoiialfeaaDoorGJ
import Derived.Test.YtfikbaoiialfeaaDoorGP
import Derived.Test.YtfikbaoiialfeaaDoorGY
import Derived.Test.YtfikbaoiialfeaaDoorTreeGrows
namespace Go.Proofs.YtfikbaoiialfeaaDoor
open Go.RowKit Go.ChangeShapes Go.WideShapes Go.Deep
theorem recs_ofP {α : Type} (f : α → List Value) (Q : α → Prop) : ∀ (rows : List (List Value)), (∀ r ∈ rows, ∃ p, r = f p ∧ Q p) → ∃ ps : List α, rows.flatten = ps.flatMap f ∧ ps.length = rows.length ∧ ∀ p ∈ ps, Q p := by
  intro rows
  induction rows with
  | nil => intro _; exact ⟨[], rfl, rfl, fun p hp => by cases hp⟩
  | cons r rows ih =>
    intro h
    obtain ⟨p, hp, hq⟩ := h r (List.mem_cons_self ..)
    obtain ⟨ps, h1, h2, h3⟩ := ih (fun r hr => h r (List.mem_cons_of_mem _ hr))
    refine ⟨p :: ps, by rw [List.flatten_cons, List.flatMap_cons, h1, hp], by simp [h2], fun q hq' => ?_⟩
    rcases List.mem_cons.1 hq' with rfl | hq'
    · exact hq
    · exact h3 q hq'
theorem Tryd.cellsLeaf : Tryd.prog.cellsOf 94 = 4 := by kernel_rfl
theorem Tryd.cellsPf : Tryd.prog.cellsOf 46 = 2 := by kernel_rfl
theorem Tryd.cellsPair : Tryd.prog.cellsOf 49 = 2 := by kernel_rfl
theorem Tryd.cellsHashes : Tryd.prog.cellsOf 22 = 1 := by kernel_rfl
theorem Tryd.cellsLeaves : Tryd.prog.cellsOf 44 = 1 := by kernel_rfl
section
variable {H : Type} {enc : TypeId × Value → H} {w : World} {base : Nat} {spare : Nat → Bool} {held : Bool}
theorem leaf_open {r : List Value} (hl : r.length = Tryd.prog.cellsOf 94) (h : Reads enc Tryd.prog w base spare held 94 r) : ∃ x : LeafV, r = x.cells ∧ x.ok w := by
  rw [Tryd.cellsLeaf] at hl
  match r, hl with
  | [c0, c1, c2, c3], _ =>
    have h0 := h.field Tryd.underlying94 0 _ rfl
    have h1 := h.field Tryd.underlying94 1 _ rfl
    have h2 := h.field Tryd.underlying94 2 _ rfl
    have h3 := h.field Tryd.underlying94 3 _ rfl
    simp [Tryd.cellsInt, Tryd.cellsStr, Tryd.cellsHashes] at h0 h1 h2 h3
    obtain ⟨z0, e0, s0⟩ := h0.string Tryd.underlying9
    obtain ⟨z1, e1, s1⟩ := h1.string Tryd.underlying9
    obtain ⟨z2, e2, _⟩ := h2.int Tryd.underlying3
    obtain ⟨fuel, y, hf⟩ := h3
    obtain ⟨a, len, cap, hcs, hln, hm, rows, hrl, hrow, hr⟩ := open_recs Tryd.underlying22 hf
    simp at e0 e1 e2 hcs
    subst e0 e1 e2 hcs
    obtain ⟨es, e, hpl⟩ := recs_of H32.cells rows (fun r hr' => h32_open (hr r hr').1 (hr r hr').2)
    exact ⟨⟨_, _, _, a, len, cap, es⟩, rfl, by rw [← e]; exact hrow, by simpa [hpl] using hrl, hln, hm, s0, s1⟩
theorem pf_open {r : List Value} (hl : r.length = Tryd.prog.cellsOf 46) (h : Reads enc Tryd.prog w base spare held 46 r) :
    ∃ (ct : Int) (a : Option Addr) (n c : Nat) (xs : List LeafV), r = [.int .i64 ct, .slice a n c] ∧ LvsAt w a xs ∧ xs.length = n ∧ n ≤ c ∧ c ≤ maxLen := by
  rw [Tryd.cellsPf] at hl
  match r, hl with
  | [c0, c1], _ =>
    have h0 := h.field Tryd.underlying46 0 _ rfl
    have h1 := h.field Tryd.underlying46 1 _ rfl
    simp [Tryd.cellsInt, Tryd.cellsLeaves] at h0 h1
    obtain ⟨z0, e0, _⟩ := h0.int Tryd.underlying3
    obtain ⟨fuel, y, hf⟩ := h1
    obtain ⟨a, len, cap, hcs, hln, hm, rows, hrl, hrow, hr⟩ := open_recs Tryd.underlying44 hf
    simp at e0 hcs
    subst e0 hcs
    obtain ⟨es, e, hpl, hq⟩ := recs_ofP LeafV.cells (fun x => x.ok w) rows (fun r hr' => leaf_open (hr r hr').1 (hr r hr').2)
    exact ⟨_, _, _, _, es, rfl, ⟨by rw [← e]; exact hrow, hq⟩, by rw [hpl, hrl], hln, hm⟩
theorem pair_open {r : List Value} (hl : r.length = Tryd.prog.cellsOf 49) (h : Reads enc Tryd.prog w base spare held 49 r) : ∃ x : Pr, r = x.cells ∧ (x.k.size ≤ maxLen ∧ x.v.size ≤ maxLen) := by
  rw [Tryd.cellsPair] at hl
  match r, hl with
  | [c0, c1], _ =>
    have h0 := h.field Tryd.underlying49 0 _ rfl
    have h1 := h.field Tryd.underlying49 1 _ rfl
    simp [Tryd.cellsStr] at h0 h1
    obtain ⟨z0, e0, s0⟩ := h0.string Tryd.underlying9
    obtain ⟨z1, e1, s1⟩ := h1.string Tryd.underlying9
    simp at e0 e1
    subst e0 e1
    exact ⟨⟨_, _⟩, rfl, s0, s1⟩
end
end Go.Proofs.YtfikbaoiialfeaaDoor
