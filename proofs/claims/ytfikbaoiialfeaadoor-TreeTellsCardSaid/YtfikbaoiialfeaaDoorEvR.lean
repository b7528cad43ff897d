/- Packets out of bytes: an end. -/
import Derived.Test.YtfikbaoiialfeaaDoorGD
import Derived.Test.YtfikbaoiialfeaaDoorGC
import Derived.Deep.MidRow
import Derived.Deep.Cut
import Derived.WalkKit
import Derived.ProofKit
import Derived.Handy
import Derived.Below
import Derived.BigQuiet
import Derived.Lib.Hide
import Derived.IntWalk
import Derived.Outline
import Derived.WalkLawsBesides
import Derived.WalkSpells
namespace Go.Proofs.YtfikbaoiialfeaaDoor
open Go.RowKit
attribute [local go_sem] strV
set_option linter.unusedVariables false
/-- What reading an end answers: port, channel, the place behind it, the error. -/
def endG (s : ByteArray) (at_ err : Int) : ByteArray × Int × Int × Int :=
  let x := textG s at_ err 12
  let y := numG s x.2.1 x.2.2 0 999
  (x.1, y.1, y.2.1, y.2.2)
theorem row_one2 (p : ByteArray) (c : Int) : (#[.string p, .int .i64 c] : Array Value).all (·.oneCell') = true := by
  rw [Array.all_eq_true_iff_forall_mem]; intro v hv; simp at hv; rcases hv with rfl | rfl <;> rfl
theorem RAt.setRow {b g : Nat} {w : World} {s : ByteArray} {A E : Int} (h : RAt b w s A E) (hne : g ≠ b) (cs : Array Value) : RAt b (w.setRow g cs) s A E := by
  unfold RAt at h ⊢
  rw [setRow_other w g b cs (Ne.symm hne)]; exact h
end Go.Proofs.YtfikbaoiialfeaaDoor
