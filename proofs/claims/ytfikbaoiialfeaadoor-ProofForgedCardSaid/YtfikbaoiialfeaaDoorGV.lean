/- Packets out of bytes: an end. Packets out of bytes. A Writer of package wire: a hash. A Writer of package wire: what each call keeps: every block but its own and rows of bytes. Packets: which may be, when they are over. Packets in bytes: Write. Packets: when they are over, the law. -/
import Derived.Test.YtfikbaoiialfeaaDoorGD
import Derived.Test.YtfikbaoiialfeaaDoorGC
import Derived.Deep.MidRow
import Derived.Deep.Cut
import Derived.WalkKit
import Derived.ProofKit
import Derived.Handy
import Derived.Below
import Derived.BigQuiet
import Derived.Lib.Hide
import Derived.IntWalk
import Derived.Outline
import Derived.WalkLawsBesides
import Derived.WalkSpells
import Derived.Laws.IdiomStrings
import Derived.Laws.Tables
import Derived.Laws.Rows
import Derived.Laws.Cells
import Derived.Lib.Walk
namespace Go.Proofs.YtfikbaoiialfeaaDoor
open Go.RowKit
attribute [local go_sem] strV
set_option linter.unusedVariables false
theorem RAt.setRow {b g : Nat} {w : World} {s : ByteArray} {A E : Int} (h : RAt b w s A E) (hne : g ≠ b) (cs : Array Value) : RAt b (w.setRow g cs) s A E := by
  unfold RAt at h ⊢
  rw [setRow_other w g b cs (Ne.symm hne)]; exact h
end Go.Proofs.YtfikbaoiialfeaaDoor
namespace Go.Proofs.YtfikbaoiialfeaaDoor
open Go.RowKit
attribute [local go_sem] strV
set_option linter.unusedVariables false
theorem row_oth' (w : World) (g k j : Nat) (v : Value) (hne : j ≠ g) : (w.setCell ⟨g, k, none⟩ v).heap[j]? = w.heap[j]? := by
  show (w.heap.modify g _)[j]? = _
  rw [Array.getElem?_modify, if_neg (Ne.symm hne)]
end Go.Proofs.YtfikbaoiialfeaaDoor
namespace Go.Proofs.YtfikbaoiialfeaaDoor
open Go.RowKit
attribute [local go_sem] strV
end Go.Proofs.YtfikbaoiialfeaaDoor
namespace Go.Proofs.YtfikbaoiialfeaaDoor
open Go.RowKit
attribute [local go_sem] strV
structure KW (b : Nat) (w w' : World) : Prop where
  size : w.heap.size ≤ w'.heap.size
  keep : ∀ k, k < w.heap.size → k ≠ b → (∀ cur fz, w.heap[k]? ≠ some (.cells cur 5 fz)) → w'.heap[k]? = w.heap[k]?
theorem KW.trans {b : Nat} {w w1 w2 : World} (h : KW b w w1) (g : KW b w1 w2) : KW b w w2 :=
  ⟨Nat.le_trans h.size g.size, fun k hk hne hty => (g.keep k (Nat.lt_of_lt_of_le hk h.size) hne (by rw [h.keep k hk hne hty]; exact hty)).trans (h.keep k hk hne hty)⟩
theorem KW.of {b : Nat} {w w' : World} (h : Below w.heap.size w w') : KW b w w' := ⟨h.size, fun k hk _ _ => h.block k hk⟩
theorem KW.setCell {b : Nat} {w w1 : World} (h : KW b w w1) (o : Nat) (v : Value) : KW b w (w1.setCell ⟨b, o, none⟩ v) :=
  ⟨by rw [World.size_setCell]; exact h.size, fun k hk hne hty => by
    show (w1.heap.modify b _)[k]? = _
    rw [Array.getElem?_modify, if_neg (fun e => hne e.symm)]; exact h.keep k hk hne hty⟩
end Go.Proofs.YtfikbaoiialfeaaDoor
namespace Go.Proofs.YtfikbaoiialfeaaDoor
open Go.RowKit
attribute [local go_sem] strV
end Go.Proofs.YtfikbaoiialfeaaDoor
namespace Go.Proofs.YtfikbaoiialfeaaDoor
open Go.RowKit
attribute [local go_sem] strV
set_option linter.unusedVariables false
end Go.Proofs.YtfikbaoiialfeaaDoor
namespace Go.Proofs.YtfikbaoiialfeaaDoor
open Go.RowKit
attribute [local go_sem] strV
end Go.Proofs.YtfikbaoiialfeaaDoor
