/- A Reader of package wire that bears an error: a hash. -/
import Derived.Test.YtfblbholkhdldaaDoorReader
import Derived.Laws.Tables
import Derived.Laws.Rows
import Derived.Laws.Cells
import Derived.WalkKit
import Derived.ProofKit
import Derived.Handy
import Derived.Below
import Derived.BigQuiet
import Derived.Lib.Hide
import Derived.IntWalk
import Derived.Outline
import Derived.WalkLawsBesides
import Derived.WalkSpells
namespace Go.Proofs.YtfblbholkhdldaaDoor
open Go.RowKit
attribute [local go_sem] strV
theorem wpList_loadRow {P : Program} {w : World} {ops : Array Oper} {rest : List Oper} {o : Oper} {a : Act} {Q : Exit → Act → World → Prop}
    (hg : o.guard = none) (p : Operand) (t : TypeId) (hop : o.op = Op.load t p) {g : Nat} {Z : Array Value} {n : Nat} {e : TypeId} (hu : P.underlying t = some (.array n e)) (hi : (P.info? t).map (·.size) = some Z.size)
    (hp : a.eval p = .pointer (some ⟨g, 0, none⟩)) (hz : w.heap[g]? = some (.cells Z t (0, 0)))
    (h : wpList P ops Q rest (a.put o.dst (.agg Z)) w) : wpList P ops Q (o :: rest) a w := by
  refine wpList_plain hg fun K hK' => ?_
  have hrun : (Instr.loadAt t (.pointer (some ⟨g, 0, none⟩))).run P w = .ok (.agg Z) w := by
    simp only [Instr.loadAt, Instr.sureAddr, Sem.run_bind, Sem.run_pure, Result.andThen]
    exact run_loadVar_row _ _ t t Z (0, 0) _ hz hu rfl hi
  unfold Oper.wp
  simp [execOp, hop, hp, hrun, Result.andThen]
  exact hK' _ _ h
theorem wpList_storeRow {P : Program} {w : World} {ops : Array Oper} {rest : List Oper} {o : Oper} {a : Act} {Q : Exit → Act → World → Prop}
    (hg : o.guard = none) (p v : Operand) (t : TypeId) (hop : o.op = Op.store t p v) {g : Nat} {Z : Array Value} (hi : (P.info? t).map (·.size) = some Z.size)
    (hp : a.eval p = .pointer (some ⟨g, 0, none⟩)) (hv : a.eval v = .agg Z) (hz : w.heap[g]? = some (.cells Z t (0, 0))) (h1 : Z.all (·.oneCell') = true)
    (h : wpList P ops Q rest (a.put o.dst undef) w) : wpList P ops Q (o :: rest) a w := by
  refine wpList_plain hg fun K hK' => ?_
  have hrow : w.setRow g Z = w := by
    unfold World.setRow
    cases w with
    | mk heap tape drawn os output =>
      congr 1
      apply Array.ext_getElem?
      intro i
      rw [Array.getElem?_modify]
      split
      · rename_i e; subst e
        have h' : heap[g]? = some (.cells Z t (0, 0)) := hz
        rw [h']; rfl
      · rfl
  have hrun : (Instr.storeAt t (.pointer (some ⟨g, 0, none⟩)) (.agg Z)).run P w = .ok () w := by
    simp only [Instr.storeAt, Instr.sureAddr, Sem.run_bind, Sem.run_pure, Result.andThen]
    rw [run_storeVar_row _ _ t t Z Z hz hi rfl h1, hrow]
  unfold Oper.wp
  simp [execOp, hop, hp, hv, hrun, Result.andThen]
  exact hK' _ _ h
theorem load_row {P : Program} {W : World} {g : Nat} {t : TypeId} {Z : Array Value} (h : W.heap[g]? = some (.cells Z t (0, 0))) : (loadCellsFrom ⟨g, 0, none⟩ 0 Z.size #[]).run P W = .ok Z W := by
  have := run_loadCells_list (P := P) (w := W) ⟨g, 0, none⟩ Z.toList (fun j v hv => by
    have hadd : (⟨g, 0, none⟩ : Addr).add j = ⟨g, j, none⟩ := by unfold Addr.add; by_cases h : j = 0 <;> simp [h]
    rw [hadd, cell_heap h]; simpa using hv)
  simpa [loadCells] using this
end Go.Proofs.YtfblbholkhdldaaDoor
