/- Rows of keys and entries, read and compared. -/
import Derived.Test.YtbckncopdkmoeaaLf10
import Derived.Test.YtbckncopdkmoeaaLf12
import Derived.Deep.MidRow
import Derived.Deep.Cut
import Derived.Deep.RegionHeld
import Derived.WalkKit
import Derived.ProofKit
import Derived.Handy
import Derived.Below
import Derived.Lib.Hide
import Derived.IntWalk
import Derived.Outline
import Derived.WalkLawsBesides
import Derived.WalkSpells
namespace Go.Proofs.Ytbckncopdkmoeaa
open Go.RowKit
attribute [local go_sem] strV
set_option linter.unusedVariables false
set_option linter.unusedSimpArgs false
theorem infoLkR (k : Lk) : (Try.prog.info? 62).map (·.size) = some k.L.length := by
  rw [show k.L.length = 4 from rfl]; kernel_rfl
theorem wpList_loadLkR {ops : Array Oper} {rest : List Oper} {op : Oper} {a : Act} {w : World} {Q : Exit → Act → World → Prop} (x : Operand) (ho : op.op = .load 62 x)
    (b o : Nat) (hx : a.eval x = .pointer (some ⟨b, o, none⟩)) (k : Lk) (hc : w.rangeAt b o k.L) (hw : Region.wanted op (yielded ops a.tmps) = true)
    (hK : wpList Try.prog ops Q rest (a.put op.dst (.agg k.row)) w) : wpList Try.prog ops Q (op :: rest) a w :=
  wpList_load_midH 62 x ho b o hx k.L _ hc Try.underlying62 rfl (infoLkR k) hw hK
theorem lk_range {w : World} {a : Option Addr} {ks : List Lk} (h : RowAt w a (ks.flatMap Lk.L)) {k : Nat} (hk : k < ks.length) : ∃ b off, a = some ⟨b, off, none⟩ ∧ b < w.heap.size ∧ w.rangeAt b (off + k * 4) ks[k].L := by
  have hl : ∀ x : Lk, (Lk.L x).length = 4 := fun x => rfl
  obtain ⟨b, off, ha, hb, hc⟩ := h.elem hl hk (by omega)
  refine ⟨b, off, ha, hb, fun j v hv => ?_⟩
  have hj : j < 4 := by have := (List.getElem?_eq_some_iff.1 hv).1; simpa [Lk.L] using this
  rw [Nat.add_assoc, hc j hj]; exact hv
theorem exec_neqLk {o : Oper} {a : Act} {w : World} (i j : Nat) (ho : o.op = .binOp .neq 62 (.tmp i) (.tmp j) 62) (k : Lk) (hx : a.eval (.tmp i) = .agg k.row) (hy : a.eval (.tmp j) = .agg k.row) : (execOp a.eval o).run Try.prog w = .ok (.value (.bool false)) w := by
  obtain ⟨p, c, u, s⟩ := k
  simp only [execOp, ho]
  rw [hx, hy]
  simp [Lk.row, go_sem, Result.andThen]
set_option maxHeartbeats 1600000 in
theorem exec_neqEnt {o : Oper} {a : Act} {w : World} (i j : Nat) (ho : o.op = .binOp .neq 78 (.tmp i) (.tmp j) 78) (e : Ent) (hx : a.eval (.tmp i) = .agg e.row) (hy : a.eval (.tmp j) = .agg e.row) : (execOp a.eval o).run Try.prog w = .ok (.value (.bool false)) w := by
  obtain ⟨sp, sc, dp, dc, sq, da, th, ta, ack, se, re, wr, ac, ti⟩ := e
  simp only [execOp, ho]
  rw [hx, hy]
  simp [Ent.row, Ent.L, go_sem, Result.andThen]
end Go.Proofs.Ytbckncopdkmoeaa
