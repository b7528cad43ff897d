/- Looking up in a life.Table. -/
import Derived.Test.YtbckncopdkmoeaaLf1
import Derived.Maps.OwnSet
import Derived.Maps.OwnOps
import Derived.Maps.OwnRows
import Derived.Deep.MidRow
import Derived.Deep.RegionLaw
import Derived.WalkKit
import Derived.ProofKit
import Derived.Handy
import Derived.Below
import Derived.Lib.Hide
import Derived.IntWalk
import Derived.Outline
import Derived.WalkLawsBesides
import Derived.WalkSpells
namespace Go.Proofs.Ytbckncopdkmoeaa
open Go.RowKit
attribute [local go_sem] strV
set_option linter.unusedVariables false
theorem zeroEnt_val (w : World) : (zeroValue 78).run Try.prog w = .ok (.agg zeroEnt.row) w := by kernel_rfl
theorem run_lookLf {w : World} {b n : Nat} {D : DataW Value} {f : Lk → Option Ent} {k : Lk} (hm : w.ownsMap Try.prog 62 hdR b n D) (hD : MapLf D f) (hk : k.wf) :
    (Instr.lookup 119 (.map (some b)) (.agg k.row) true).run Try.prog w = .ok (.tuple #[.agg ((f k).getD zeroEnt).row, .bool (f k).isSome]) w := by
  obtain ⟨v, ps, h1, h2⟩ := hm.look_ok lk_keyed Try.underlying119 (zeroEnt_val _) (zd := .held (.agg zeroEnt.row)) (zp := []) rfl (Lk.key hk)
  rw [hD.at_ _ hk] at h2
  rw [h1, hdR_inj h2, hD.has _ hk]
theorem exec_lookLf {o : Oper} {a : Act} {w : World} (m x : Operand) (ho : o.op = .lookup 119 m x true) {b n : Nat} {D : DataW Value} {f : Lk → Option Ent} {k : Lk} (hmv : a.eval m = .map (some b)) (hx : a.eval x = .agg k.row)
    (hm : w.ownsMap Try.prog 62 hdR b n D) (hD : MapLf D f) (hk : k.wf) : (execOp a.eval o).run Try.prog w = .ok (.value (.tuple #[.agg ((f k).getD zeroEnt).row, .bool (f k).isSome])) w := by
  have h1 := run_lookLf hm hD hk
  simp [execOp, ho, hmv, hx, h1, Result.andThen]
theorem step_storeRowG {P : Program} {ops : Array Oper} {o : Oper} {a : Act} {w : World} {K : Act → World → Prop} {Q : Exit → Act → World → Prop} {E : Prop} (hg : o.guard = none) (p v : Operand) (t : TypeId) (hop : o.op = Op.store t p v) {g : Nat} {Y Z : Array Value} (hi : (P.info? t).map (·.size) = some Z.size)
    (hp : a.eval p = .pointer (some ⟨g, 0, none⟩)) (hv : a.eval v = .agg Z) (hz : w.heap[g]? = some (.cells Y t (0, 0))) (hY : Y.size = Z.size) (h1 : Z.all (·.oneCell') = true)
    (hK : K (a.put o.dst undef) (w.setRow g Z)) : if Region.wanted o (yielded ops a.tmps) = true then Oper.wp P o a w K Q else E := by
  have hw : Region.wanted o (yielded ops a.tmps) = true := by simp [Region.wanted, hg]
  rw [if_pos hw]
  have hrun : (Instr.storeAt t (.pointer (some ⟨g, 0, none⟩)) (.agg Z)).run P w = .ok () (w.setRow g Z) := by
    simp only [Instr.storeAt, Instr.sureAddr, Sem.run_bind, Sem.run_pure, Result.andThen]
    rw [run_storeVar_row _ _ t t Y Z hz hi hY h1]
  unfold Oper.wp
  simp [execOp, hop, hp, hv, hrun, Result.andThen]
  exact hK
theorem Ent.row_one (e : Ent) : e.row.all (·.oneCell') = true := by simp [Ent.row, Ent.L, Value.oneCell']
theorem infoEnt_row (e : Ent) : (Try.prog.info? 78).map (·.size) = some e.row.size := by
  rw [e.row_size]; kernel_rfl
end Go.Proofs.Ytbckncopdkmoeaa
