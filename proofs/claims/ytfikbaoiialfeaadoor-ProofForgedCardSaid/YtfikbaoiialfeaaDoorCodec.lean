/- Readers and what they read, put together: what was written is read, what is read was written so, cut short it is none. -/
import Derived.Test.YtfikbaoiialfeaaDoorGD
namespace Go.Proofs.YtfikbaoiialfeaaDoor
open Go.RowKit
set_option linter.unusedVariables false
/-- A reading P of values whose bytes are enc; ok: the values that it reads. -/
structure Codec {α : Type} (P : ByteArray → Int → Int → α × Int × Int) (enc : α → List UInt8) (ok : α → Prop) : Prop where
  good : ∀ {s : ByteArray} {A B : List UInt8} {x : α}, ok x → s.data.toList = A ++ enc x ++ B → P s A.length 0 = (x, ((A.length + (enc x).length : Nat) : Int), 0)
  cut : ∀ {s : ByteArray} {A : List UInt8} {x : α} {k : Nat}, ok x → s.data.toList = A ++ (enc x).take k → k < (enc x).length → (P s A.length 0).2.2 = 2
  stay : ∀ {s : ByteArray} {a e : Int}, e ≠ 0 → (P s a e).2.2 = e
  back : ∀ {s : ByteArray} {i : Nat} {a' : Int} {x : α}, i ≤ s.size → P s i 0 = (x, a', 0) → ok x ∧ ∃ m : Nat, a' = ((i + m : Nat) : Int) ∧ i + m ≤ s.size ∧ enc x = (s.data.toList.drop i).take m
theorem Codec.map {α β : Type} {P : ByteArray → Int → Int → α × Int × Int} {enc : α → List UInt8} {ok : α → Prop} (h : Codec P enc ok) (f : α → β) (g : β → α) (hgf : ∀ x, ok x → g (f x) = x) :
    Codec (fun s a e => (f (P s a e).1, (P s a e).2.1, (P s a e).2.2)) (fun b => enc (g b)) (fun b => ok (g b) ∧ f (g b) = b) := by
  refine ⟨fun {s A B x} hx hs => ?_, fun {s A x k} hx hs hk => ?_, fun {s a e} he => ?_, fun {s i a' x} hi' hh => ?_⟩
  · simp only [h.good hx.1 hs, hx.2]
  · exact h.cut hx.1 hs hk
  · exact h.stay he
  · obtain ⟨⟨x1, a1, e1⟩, hx⟩ : ∃ t, P s i 0 = t := ⟨_, rfl⟩
    simp only [hx, Prod.mk.injEq] at hh
    obtain ⟨rfl, rfl, rfl⟩ := hh
    obtain ⟨o, m, r1, r2, r3⟩ := h.back hi' hx
    exact ⟨⟨by rw [hgf _ o]; exact o, by rw [hgf _ o]⟩, m, r1, r2, by rw [hgf _ o]; exact r3⟩
section
variable {α : Type} {P : ByteArray → Int → Int → α × Int × Int} {enc : α → List UInt8} {ok : α → Prop} {may : α → Bool} {z : α} {v : ByteArray} {x : α}
end
end Go.Proofs.YtfikbaoiialfeaaDoor
