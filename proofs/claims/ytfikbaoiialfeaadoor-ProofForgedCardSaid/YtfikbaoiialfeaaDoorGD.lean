/- Names and ends: which may be, walked in the program and in the document's own answer. A Writer of package wire that bears an error, or comes to bear one. A Writer of package wire: what was written, asked for as often as one likes, and with nothing written. States of ends: what they are in bytes, and what bytes read as. States of ends: which may be, in the program and in the document. ligref1.PutText: a text with its length before it. States of ends in bytes: Encode, in the program and in the document. States of ends out of bytes: Decode. -/
import Derived.Test.YtfikbaoiialfeaaDoorRows
import Derived.Test.YtfikbaoiialfeaaDoorGA
import Derived.WalkKit
import Derived.ProofKit
import Derived.Handy
import Derived.Below
import Derived.BigQuiet
import Derived.Lib.Hide
import Derived.IntWalk
import Derived.Outline
import Derived.WalkLawsBesides
import Derived.WalkSpells
import Derived.Test.YtfikbaoiialfeaaDoorGB
import Derived.BigRegion
import Derived.RegionTactic
import Derived.Test.YtfikbaoiialfeaaDoorGC
import Derived.Deep.Cut
import Derived.Deep.MidRow
namespace Go.Proofs.YtfikbaoiialfeaaDoor
open Go.RowKit
attribute [local go_sem] strV

end Go.Proofs.YtfikbaoiialfeaaDoor
namespace Go.Proofs.YtfikbaoiialfeaaDoor
open Go.RowKit
attribute [local go_sem] strV
theorem WAt.fr {B b : Nat} {w : World} {l : List UInt8} {err : Int} (h : WAt B b w l err) (k : Nat) : w.frozen? ⟨b, k, none⟩ = false := by
  obtain ⟨hB, p, v, h1, _⟩ := h; exact frozen_heap h1 k
end Go.Proofs.YtfikbaoiialfeaaDoor
namespace Go.Proofs.YtfikbaoiialfeaaDoor
open Go.RowKit
attribute [local go_sem] strV
/-- Block b is a Writer that has written l and bears err, and may have been asked for it (its row may be frozen). -/
def WRd (B b : Nat) (w : World) (l : List UInt8) (err : Int) : Prop :=
  B ≤ b ∧ ∃ p v, w.heap[b]? = some (.cells #[p, v, .int .i64 err] 115 (0, 0)) ∧ v.ownBlock ≠ some b ∧
    ((v = .slice none 0 0 ∧ l = []) ∨ ∃ g cap cur fz, v = .slice (some ⟨g, 0, none⟩) l.length cap ∧ B ≤ g ∧ w.heap[g]? = some (.cells cur 5 fz) ∧ l.length ≤ cap ∧ cap ≤ maxLen ∧ cur.size = cap ∧ cur.toList.take l.length = l.map bv)
theorem WRd.err {B b : Nat} {w : World} {l : List UInt8} {err : Int} (h : WRd B b w l err) : w.cell? ⟨b, 2, none⟩ = some (.int .i64 err) := by
  obtain ⟨hB, p, v, h1, _⟩ := h; exact cell_heap h1 2
theorem WRd.below {B b : Nat} {w w' : World} {l : List UInt8} {err : Int} (h : WRd B b w l err) (hb : Below w.heap.size w w') : WRd B b w' l err := by
  obtain ⟨hB, p, v, h1, hne, hr⟩ := h
  refine ⟨hB, p, v, by rw [hb.block b (Array.getElem?_eq_some_iff.1 h1).1]; exact h1, hne, ?_⟩
  rcases hr with h | ⟨g, cap, cur, fz, hv, hB, hg, r⟩
  · exact .inl h
  · exact .inr ⟨g, cap, cur, fz, hv, hB, by rw [hb.block g (Array.getElem?_eq_some_iff.1 hg).1]; exact hg, r⟩
theorem WRd.lt {B b : Nat} {w : World} {l : List UInt8} {err : Int} (h : WRd B b w l err) : b < w.heap.size := by
  obtain ⟨hB, p, v, h1, _⟩ := h; exact (Array.getElem?_eq_some_iff.1 h1).1
end Go.Proofs.YtfikbaoiialfeaaDoor
namespace Go.Proofs.YtfikbaoiialfeaaDoor
open Go.RowKit
/-- The values of a state: port, channel, ordered, closed, stop. -/
structure St where
  p : ByteArray
  c : Int
  o : Bool
  cl : Bool
  st : Int
def St.zero : St := ⟨⟨#[]⟩, 0, false, false, 0⟩
def St.val (s : St) : Value := .agg #[.string s.p, .int .i64 s.c, .bool s.o, .bool s.cl, .int .i64 s.st]
structure Five where
  n1 : Int
  n2 : Int
  t : ByteArray
  c : Int
  st : Int
  e : Int
def Five.state (f : Five) : St := ⟨f.t, f.c, f.n2 == 1, f.n1 == 1, f.st⟩
end Go.Proofs.YtfikbaoiialfeaaDoor
namespace Go.Proofs.YtfikbaoiialfeaaDoor
open Go.RowKit
attribute [local go_sem] strV
end Go.Proofs.YtfikbaoiialfeaaDoor
namespace Go.Proofs.YtfikbaoiialfeaaDoor
open Go.RowKit
attribute [local go_sem] strV
end Go.Proofs.YtfikbaoiialfeaaDoor
namespace Go.Proofs.YtfikbaoiialfeaaDoor
open Go.RowKit
attribute [local go_sem] strV
theorem cells_of {w : World} {g : Nat} {c : Array Value} {e : TypeId} (h : w.heap[g]? = some (.cells c e (0, 0))) {K : Nat} {w' : World} (hb : Below K w w') (hg : g < K) : w'.heap[g]? = some (.cells c e (0, 0)) := by
  rw [hb.block g hg]; exact h
end Go.Proofs.YtfikbaoiialfeaaDoor
namespace Go.Proofs.YtfikbaoiialfeaaDoor
open Go.RowKit
attribute [local go_sem] strV
theorem wp_nameE {P : Program} {c : Code} {Q : Exit → Act → World → Prop} {a : Act} (E : World) (h : ∀ W, W = E → c.wp P Q a W) : c.wp P Q a E := h E rfl
theorem RAt.put {b g k : Nat} {w : World} {s : ByteArray} {A E : Int} (h : RAt b w s A E) (hne : g ≠ b) (x : Value) : RAt b (w.setCell ⟨g, k, none⟩ x) s A E := by
  unfold RAt at h ⊢
  show (w.heap.modify g _)[b]? = _
  rw [Array.getElem?_modify, if_neg hne]; exact h
theorem row_put5 {w : World} {g k : Nat} {cur : Array Value} {t : TypeId} {v : Value} (h : w.heap[g]? = some (.cells cur t (0, 0))) : (w.setCell ⟨g, k, none⟩ v).heap[g]? = some (.cells (cur.setIfInBounds k v) t (0, 0)) := by
  show (w.heap.modify g _)[g]? = _
  rw [Array.getElem?_modify, if_pos rfl, h]; rfl
theorem rangeAt_row5 {w : World} {b : Nat} {e : TypeId} {fz : Nat × Nat} {C : Array Value} (h : w.heap[b]? = some (.cells C e fz)) : w.rangeAt b 0 C.toList := fun j v hv => by
  unfold World.cell?; rw [h, Nat.zero_add]; simpa using hv
end Go.Proofs.YtfikbaoiialfeaaDoor
