/- Packets out of bytes. -/
import Derived.Test.YtfikbaoiialfeaaDoorEvR
import Derived.Deep.MidRow
import Derived.Deep.Cut
import Derived.WalkKit
import Derived.ProofKit
import Derived.Handy
import Derived.Below
import Derived.BigQuiet
import Derived.Lib.Hide
import Derived.IntWalk
import Derived.Outline
import Derived.WalkLawsBesides
import Derived.WalkSpells
namespace Go.Proofs.YtfikbaoiialfeaaDoor
open Go.RowKit
attribute [local go_sem] strV
set_option linter.unusedVariables false
structure PkG where
  sp : ByteArray
  sc : Int
  dp : ByteArray
  dc : Int
  sq : Int
  da : ByteArray
  th : Int
  ta : Int
  a : Int
  e : Int
/-- What reading a packet answers, the place behind it, the error. -/
def pkG (s : ByteArray) (at_ err : Int) : PkG :=
  let x1 := endG s at_ err
  let x2 := endG s x1.2.2.1 x1.2.2.2
  let x3 := numG s x2.2.2.1 x2.2.2.2 1 1099511627776
  let x4 := textG s x3.2.1 x3.2.2 200
  let x5 := numG s x4.2.1 x4.2.2 0 1099511627776
  let x6 := numG s x5.2.1 x5.2.2 0 1099511627776
  ⟨x1.1, x1.2.1, x2.1, x2.2.1, x3.1, x4.1, x5.1, x6.1, x6.2.1, x6.2.2⟩
theorem row_oth' (w : World) (g k j : Nat) (v : Value) (hne : j ≠ g) : (w.setCell ⟨g, k, none⟩ v).heap[j]? = w.heap[j]? := by
  show (w.heap.modify g _)[j]? = _
  rw [Array.getElem?_modify, if_neg (Ne.symm hne)]
theorem Kept.setFar {b g k : Nat} {w w1 : World} {v : Value} (h : Kept b w w1) (hg : w.heap.size ≤ g) : Kept b w (w1.setCell ⟨g, k, none⟩ v) :=
  ⟨h.os, h.tape, h.output, by rw [World.size_setCell]; exact h.size, fun j hj hne => (row_oth' w1 g k j v (by omega)).trans (h.block j hj hne)⟩
theorem Pk.row_one8 (sp : ByteArray) (sc : Int) (dp : ByteArray) (dc sq : Int) (da : ByteArray) (th ta : Int) : (#[.string sp, .int .i64 sc, .string dp, .int .i64 dc, .int .i64 sq, .string da, .int .i64 th, .int .i64 ta] : Array Value).all (·.oneCell') = true := by
  rw [Array.all_eq_true_iff_forall_mem]; intro v hv; simp at hv; rcases hv with rfl | rfl | rfl | rfl | rfl | rfl | rfl | rfl <;> rfl
end Go.Proofs.YtfikbaoiialfeaaDoor
