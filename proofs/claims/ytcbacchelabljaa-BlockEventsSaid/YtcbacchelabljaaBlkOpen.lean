/- A block as it comes in. -/
import Derived.Test.YtcbacchelabljaaEvOpen
import Derived.Test.YtcbacchelabljaaEvL
import Derived.Test.YtcbacchelabljaaOpen
namespace Go.Proofs.Ytcbacchelabljaa
open Go.RowKit Go.ChangeShapes Go.WideShapes Go.Deep
theorem recs_ofP {α : Type} (f : α → List Value) (Q : α → Prop) : ∀ (rows : List (List Value)), (∀ r ∈ rows, ∃ p, r = f p ∧ Q p) → ∃ ps : List α, rows.flatten = ps.flatMap f ∧ ps.length = rows.length ∧ ∀ p ∈ ps, Q p := by
  intro rows
  induction rows with
  | nil => intro _; exact ⟨[], rfl, rfl, fun p hp => by cases hp⟩
  | cons r rows ih =>
    intro h
    obtain ⟨p, hp, hq⟩ := h r (List.mem_cons_self ..)
    obtain ⟨ps, h1, h2, h3⟩ := ih (fun r hr => h r (List.mem_cons_of_mem _ hr))
    refine ⟨p :: ps, by rw [List.flatten_cons, List.flatMap_cons, h1, hp], by simp [h2], fun q hq' => ?_⟩
    rcases List.mem_cons.1 hq' with rfl | hq'
    · exact hq
    · exact h3 q hq'
/-- The strings of an event are no longer than a string can be. -/
def Ev.small (e : Ev) : Prop := e.sp.size ≤ maxLen ∧ e.dp.size ≤ maxLen ∧ e.ep.size ≤ maxLen
theorem Try.cellsBlk : Try.prog.cellsOf 24 = 4 := by kernel_rfl
theorem Try.cellsEvs : Try.prog.cellsOf 22 = 1 := by kernel_rfl
section
variable {H : Type} {enc : TypeId × Value → H} {w : World} {base : Nat} {spare : Nat → Bool} {held : Bool}
theorem blk_open {r : List Value} (hl : r.length = Try.prog.cellsOf 24) (h : Reads enc Try.prog w base spare held 24 r) :
    ∃ (ch : ByteArray) (ht tm : Int) (a : Option Addr) (n cap : Nat) (es : List Ev), r = [.string ch, .int .i64 ht, .int .i64 tm, .slice a n cap] ∧ ch.size ≤ maxLen ∧ RowAt w a (es.flatMap Ev.cells) ∧ es.length = n ∧ n ≤ cap ∧ cap ≤ maxLen ∧ ∀ e ∈ es, e.small := by
  rw [Try.cellsBlk] at hl
  match r, hl with
  | [c0, c1, c2, c3], _ =>
    have h0 := h.field Try.underlying24 0 _ rfl
    have h1 := h.field Try.underlying24 1 _ rfl
    have h2 := h.field Try.underlying24 2 _ rfl
    have h3 := h.field Try.underlying24 3 _ rfl
    simp [Try.cellsInt, Try.cellsStr, Try.cellsEvs] at h0 h1 h2 h3
    obtain ⟨z0, e0, s0⟩ := h0.string Try.underlying9
    obtain ⟨z1, e1, _⟩ := h1.int Try.underlying3
    obtain ⟨z2, e2, _⟩ := h2.int Try.underlying3
    obtain ⟨fuel, x, hf⟩ := h3
    obtain ⟨a, len, cap, hcs, hln, hm, rows, hrl, hrow, hr⟩ := open_recs Try.underlying22 hf
    simp at e0 e1 e2 hcs
    subst e0 e1 e2 hcs
    obtain ⟨es, e, hpl, hq⟩ := recs_ofP Ev.cells Ev.small rows (fun r hr' => by
      obtain ⟨v, hv, s1, s2, s3⟩ := ev_open (hr r hr').1 (hr r hr').2
      exact ⟨v, hv, s1, s2, s3⟩)
    exact ⟨_, _, _, _, _, _, es, rfl, s0, by rw [← e]; exact hrow, by omega, hln, hm, hq⟩
end
end Go.Proofs.Ytcbacchelabljaa
