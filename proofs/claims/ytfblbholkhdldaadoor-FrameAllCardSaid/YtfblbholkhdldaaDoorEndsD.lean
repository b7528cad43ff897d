/- States of ends out of bytes: Decode. -/
import Derived.Test.YtfblbholkhdldaaDoorEndsE
import Derived.Deep.MidRow
import Derived.Deep.Cut
import Derived.WalkKit
import Derived.ProofKit
import Derived.Handy
import Derived.Below
import Derived.BigQuiet
import Derived.Lib.Hide
import Derived.IntWalk
import Derived.Outline
import Derived.WalkLawsBesides
import Derived.WalkSpells
namespace Go.Proofs.YtfblbholkhdldaaDoor
open Go.RowKit
attribute [local go_sem] strV
theorem wp_nameE {P : Program} {c : Code} {Q : Exit → Act → World → Prop} {a : Act} (E : World) (h : ∀ W, W = E → c.wp P Q a W) : c.wp P Q a E := h E rfl
theorem RAt.put {b g k : Nat} {w : World} {s : ByteArray} {A E : Int} (h : RAt b w s A E) (hne : g ≠ b) (x : Value) : RAt b (w.setCell ⟨g, k, none⟩ x) s A E := by
  unfold RAt at h ⊢
  show (w.heap.modify g _)[b]? = _
  rw [Array.getElem?_modify, if_neg hne]; exact h
theorem row_put5 {w : World} {g k : Nat} {cur : Array Value} {t : TypeId} {v : Value} (h : w.heap[g]? = some (.cells cur t (0, 0))) : (w.setCell ⟨g, k, none⟩ v).heap[g]? = some (.cells (cur.setIfInBounds k v) t (0, 0)) := by
  show (w.heap.modify g _)[g]? = _
  rw [Array.getElem?_modify, if_pos rfl, h]; rfl
theorem row_oth {w : World} {g k b : Nat} {X : Obj} {v : Value} (h : w.heap[b]? = some X) (hne : g ≠ b) : (w.setCell ⟨g, k, none⟩ v).heap[b]? = some X := by
  show (w.heap.modify g _)[b]? = _
  rw [Array.getElem?_modify, if_neg hne]; exact h
theorem Kept.row5 {b g : Nat} {w w' : World} {X : Obj} (h : Kept b w w') (hg : w.heap[g]? = some X) (hb : g ≠ b) : w'.heap[g]? = some X := by
  rw [h.block g (Array.getElem?_eq_some_iff.1 hg).1 hb]; exact hg
theorem rangeAt_row5 {w : World} {b : Nat} {e : TypeId} {fz : Nat × Nat} {C : Array Value} (h : w.heap[b]? = some (.cells C e fz)) : w.rangeAt b 0 C.toList := fun j v hv => by
  unfold World.cell?; rw [h, Nat.zero_add]; simpa using hv
theorem St.row_one (p : ByteArray) (c : Int) (o cl : Bool) (st : Int) : (#[.string p, .int .i64 c, .bool o, .bool cl, .int .i64 st] : Array Value).all (·.oneCell') = true := by
  rw [Array.all_eq_true_iff_forall_mem]; intro v hv; simp at hv; rcases hv with rfl | rfl | rfl | rfl | rfl <;> rfl
theorem textG_size (v : ByteArray) (a e m : Int) : (textG v a e m).1.size ≤ v.size := by
  unfold textG
  split
  · unfold textF
    dsimp only
    split
    · split
      · exact Nat.zero_le _
      · split
        · exact Nat.zero_le _
        · simp; omega
    · exact Nat.zero_le _
  · exact Nat.zero_le _
end Go.Proofs.YtfblbholkhdldaaDoor
