/- Lists of texts, each of which is read further: what was written is read, what is read was written so, cut short it is none. -/
import Derived.Test.YtfikbaoiialfeaaDoorGU
import Derived.Test.YtfikbaoiialfeaaDoorCodec
namespace Go.Proofs.YtfikbaoiialfeaaDoor
open Go.RowKit
set_option linter.unusedVariables false
section
variable {α : Type}
/-- n things, one behind the other. -/
def listP (P : ByteArray → Int → Int → α × Int × Int) : Nat → ByteArray → Int → Int → List α × Int × Int
  | 0, _, a, e => ([], a, e)
  | n + 1, s, a, e => ((P s a e).1 :: (listP P n s (P s a e).2.1 (P s a e).2.2).1, (listP P n s (P s a e).2.1 (P s a e).2.2).2.1, (listP P n s (P s a e).2.1 (P s a e).2.2).2.2)
variable {P : ByteArray → Int → Int → α × Int × Int} {enc : α → List UInt8} {ok : α → Prop}
/-- The same codec, in other words. -/
theorem Codec.as {enc' : α → List UInt8} {ok' : α → Prop} (h : Codec P enc ok) (h1 : ∀ x, ok' x → ok x ∧ enc x = enc' x) (h2 : ∀ x, ok x → ok' x) : Codec P enc' ok' := by
  refine ⟨fun {s A B x} hx hs => ?_, fun {s A x k} hx hs hk => ?_, fun {s a e} he => h.stay he, fun {s i a' x} hi' hh => ?_⟩
  · rw [← (h1 x hx).2] at hs ⊢
    exact h.good (h1 x hx).1 hs
  · rw [← (h1 x hx).2] at hs hk
    exact h.cut (h1 x hx).1 hs hk
  · obtain ⟨o, m, r1, r2, r3⟩ := h.back hi' hh
    exact ⟨h2 x o, m, r1, r2, by rw [← (h1 x (h2 x o)).2]; exact r3⟩
end
end Go.Proofs.YtfikbaoiialfeaaDoor
