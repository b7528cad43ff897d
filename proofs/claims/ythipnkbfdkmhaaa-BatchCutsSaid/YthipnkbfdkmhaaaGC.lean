/- A Reader of package wire that bears an error: a hash. A Reader of package wire that bears no error: a hash where too little is left. The document's own reader: a hash at an error, or where too little is left. A Reader of package wire reads a hash: copy of a text into a row. The document's own reader: a hash that is there. A Reader of package wire: texts, counts, and what they keep. A Reader of package wire: numbers and hashes, and what they keep. Both readers at whatever error they bear: one function for each question. -/
import Derived.Test.YthipnkbfdkmhaaaGB
import Derived.Laws.Tables
import Derived.Laws.Rows
import Derived.Laws.Cells
import Derived.WalkKit
import Derived.ProofKit
import Derived.Handy
import Derived.Below
import Derived.BigQuiet
import Derived.Lib.Hide
import Derived.IntWalk
import Derived.Outline
import Derived.WalkLawsBesides
import Derived.WalkSpells
import Derived.Lib.BufferWrite
import Derived.Laws.CopyOwn
import Derived.Deep.RegionLaw
import Derived.BigRegion
import Derived.RegionTactic
namespace Go.Proofs.Ythipnkbfdkmhaaa
open Go.RowKit
attribute [local go_sem] strV
end Go.Proofs.Ythipnkbfdkmhaaa
namespace Go.Proofs.Ythipnkbfdkmhaaa
open Go.RowKit
attribute [local go_sem] strV
theorem row_set {W : World} {b o g : Nat} {v : Value} {X : Option Obj} (h : W.heap[g]? = X) (hne : b ≠ g) : (W.setCell ⟨b, o, none⟩ v).heap[g]? = X := by
  show (W.heap.modify b _)[g]? = X
  rw [Array.getElem?_modify, if_neg hne]; exact h
end Go.Proofs.Ythipnkbfdkmhaaa
namespace Go.Proofs.Ythipnkbfdkmhaaa
open Go.RowKit
attribute [local go_sem] strV
end Go.Proofs.Ythipnkbfdkmhaaa
namespace Go.Proofs.Ythipnkbfdkmhaaa
open Go.RowKit
attribute [local go_sem] strV
theorem wpList_storeRowTo {P : Program} {w : World} {ops : Array Oper} {rest : List Oper} {o : Oper} {a : Act} {Q : Exit → Act → World → Prop}
    (hg : o.guard = none) (p v : Operand) (t : TypeId) (hop : o.op = Op.store t p v) {g : Nat} {Y Z : Array Value} (hi : (P.info? t).map (·.size) = some Z.size)
    (hp : a.eval p = .pointer (some ⟨g, 0, none⟩)) (hv : a.eval v = .agg Z) (hz : w.heap[g]? = some (.cells Y t (0, 0))) (hY : Y.size = Z.size) (h1 : Z.all (·.oneCell') = true)
    (h : wpList P ops Q rest (a.put o.dst undef) (w.setRow g Z)) : wpList P ops Q (o :: rest) a w := by
  refine wpList_plain hg fun K hK' => ?_
  have hrun : (Instr.storeAt t (.pointer (some ⟨g, 0, none⟩)) (.agg Z)).run P w = .ok () (w.setRow g Z) := by
    simp only [Instr.storeAt, Instr.sureAddr, Sem.run_bind, Sem.run_pure, Result.andThen]
    rw [run_storeVar_row _ _ t t Y Z hz hi hY h1]
  unfold Oper.wp
  simp [execOp, hop, hp, hv, hrun, Result.andThen]
  exact hK' _ _ h
/-- The row of a hash's bytes. -/
def hrow (l : List UInt8) : Array Value := (Lib.byteCells l).toArray
theorem hrow_size (l : List UInt8) : (hrow l).size = l.length := by simp [hrow, Lib.byteCells_length]
theorem hrow_one (l : List UInt8) : (hrow l).all (·.oneCell') = true := by
  rw [Array.all_eq_true_iff_forall_mem]; intro v hv; exact Lib.byteCells_one l v (by simpa [hrow] using hv)
end Go.Proofs.Ythipnkbfdkmhaaa
namespace Go.Proofs.Ythipnkbfdkmhaaa
open Go.RowKit
attribute [local go_sem] strV
end Go.Proofs.Ythipnkbfdkmhaaa
namespace Go.Proofs.Ythipnkbfdkmhaaa
open Go.RowKit
attribute [local go_sem] strV
/-- All is as it was but block b, and what has been made since. -/
structure Kept (b : Nat) (w w' : World) : Prop where
  os : w'.os = w.os
  tape : w'.tape = w.tape
  output : w'.output = w.output
  size : w.heap.size ≤ w'.heap.size
  block : ∀ k, k < w.heap.size → k ≠ b → w'.heap[k]? = w.heap[k]?
theorem Kept.of {b : Nat} {w w' : World} (h : Below w.heap.size w w') : Kept b w w' := ⟨h.os, h.tape, h.output, h.size, fun k hk _ => h.block k hk⟩
theorem Kept.trans {b : Nat} {w w1 w2 : World} (h : Kept b w w1) (g : Kept b w1 w2) : Kept b w w2 :=
  ⟨g.os.trans h.os, g.tape.trans h.tape, g.output.trans h.output, Nat.le_trans h.size g.size, fun k hk hne => (g.block k (Nat.lt_of_lt_of_le hk h.size) hne).trans (h.block k hk hne)⟩
theorem Kept.setCell {b : Nat} {w w1 : World} (h : Kept b w w1) (o : Nat) (v : Value) : Kept b w (w1.setCell ⟨b, o, none⟩ v) :=
  ⟨h.os, h.tape, h.output, by rw [World.size_setCell]; exact h.size, fun k hk hne => by
    show (w1.heap.modify b _)[k]? = _
    rw [Array.getElem?_modify, if_neg (fun e => hne e.symm)]; exact h.block k hk hne⟩
theorem Kept.below {b B : Nat} {w w' : World} (h : Kept b w w') (hB : B ≤ b) (hw : B ≤ w.heap.size) : Below B w w' :=
  ⟨h.os, h.tape, h.output, h.size, fun k hk => h.block k (by omega) (by omega)⟩
theorem QAt.kept {b c : Nat} {w w' : World} {s : ByteArray} {at_ err : Int} (h : QAt c w s at_ err) (hk : Kept b w w') (hne : c ≠ b) : QAt c w' s at_ err := by
  unfold QAt; rw [hk.block c h.lt hne]; exact h
theorem RAt.kept {b c : Nat} {w w' : World} {s : ByteArray} {at_ err : Int} (h : RAt c w s at_ err) (hk : Kept b w w') (hne : c ≠ b) : RAt c w' s at_ err := by
  unfold RAt; rw [hk.block c h.lt hne]; exact h
end Go.Proofs.Ythipnkbfdkmhaaa
namespace Go.Proofs.Ythipnkbfdkmhaaa
open Go.RowKit
attribute [local go_sem] strV
theorem Kept.setRow {b g : Nat} {w w1 : World} (h : Kept b w w1) (hg : w.heap.size ≤ g) (cs : Array Value) : Kept b w (w1.setRow g cs) :=
  ⟨h.os, h.tape, h.output, by simpa [World.setRow] using h.size, fun k hk hne => (setRow_other w1 g k cs (by omega)).trans (h.block k hk hne)⟩
end Go.Proofs.Ythipnkbfdkmhaaa
namespace Go.Proofs.Ythipnkbfdkmhaaa
open Go.RowKit
attribute [local go_sem] strV
end Go.Proofs.Ythipnkbfdkmhaaa
