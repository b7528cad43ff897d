/- ShaLess, walked. -/
import Derived.Test.YtfikbaoiialfeaaDoorLess
import Derived.Test.YtfikbaoiialfeaaDoorGF
import Derived.Test.YtfikbaoiialfeaaDoorHashEq
import Derived.Deep.MidRow
import Derived.WalkKit
import Derived.ProofKit
import Derived.Handy
import Derived.Below
import Derived.Lib.Hide
import Derived.IntWalk
import Derived.Outline
import Derived.WalkLawsBesides
import Derived.WalkSpells
namespace Go.Proofs.YtfikbaoiialfeaaDoor
open Go.RowKit
attribute [local go_sem] strV
set_option linter.unusedVariables false
/-- A whole hash is loaded, in whatever world beyond W. -/
theorem load_hash {W : World} {g : Nat} {q : List UInt8} (hg : W.heap[g]? = some (.cells (hrow q) 25 (0, 0))) (hq : q.length = 32) (n : Beyond W) :
    (Instr.loadAt 25 (.pointer (some ⟨g, 0, none⟩))).run Tryd.prog n.x = .ok (.agg (hrow q)) n.x := by
  have hg2 := cells_of hg n.h (Array.getElem?_eq_some_iff.1 hg).1
  have hl : (Lib.byteCells q).length = 32 := by rw [Lib.byteCells_length]; exact hq
  exact run_loadAt_mid (P := Tryd.prog) n.x g 0 25 (Lib.byteCells q) _ (rangeAt_row5 hg2) Tryd.underlying25 rfl (by rw [hl]; kernel_rfl)
theorem quiet_load {P : Program} {o : Oper} {a : Act} {C : World → Prop} {K : Act → Prop} {v : Value} (t : TypeId) (p : Operand) {ad : Value} (hop : o.op = Op.load t p) (hp : a.eval p = ad)
    (hl : ∀ w, C w → (Instr.loadAt t ad).run P w = .ok v w) (h : K (a.put o.dst v)) : o.quiet P a C K := by
  refine ⟨v, fun w hw => ?_, h⟩
  unfold Oper.quietAt
  have := hl w hw
  simp [execOp, hop, hp, this, Result.andThen, Oper.quietUpon]
  try exact hw
theorem wpList_loadRowG {P : Program} {w : World} {ops : Array Oper} {rest : List Oper} {o : Oper} {a : Act} {Q : Exit → Act → World → Prop}
    (p : Operand) (t : TypeId) (hop : o.op = Op.load t p) {g : Nat} {Z : Array Value} {n : Nat} {e : TypeId} (hu : P.underlying t = some (.array n e)) (hi : (P.info? t).map (·.size) = some Z.size)
    (hp : a.eval p = .pointer (some ⟨g, 0, none⟩)) (hz : w.heap[g]? = some (.cells Z t (0, 0))) (hw : Region.wanted o (yielded ops a.tmps) = true)
    (h : wpList P ops Q rest (a.put o.dst (.agg Z)) w) : wpList P ops Q (o :: rest) a w := by
  have hrun : (Instr.loadAt t (.pointer (some ⟨g, 0, none⟩))).run P w = .ok (.agg Z) w := by
    simp only [Instr.loadAt, Instr.sureAddr, Sem.run_bind, Sem.run_pure, Result.andThen]
    exact run_loadVar_row _ _ t t Z (0, 0) _ hz hu rfl hi
  unfold wpList
  rw [if_pos hw]
  refine .inl ?_
  unfold Oper.wp
  simp [execOp, hop, hp, hrun, Result.andThen]
  exact h
theorem str_less (q r : List UInt8) : Op.bytesLess (⟨q.toArray⟩ : ByteArray).toList (⟨r.toArray⟩ : ByteArray).toList = Op.bytesLess q r := by
  rw [ByteArray.toList_eq, ByteArray.toList_eq]
end Go.Proofs.YtfikbaoiialfeaaDoor
