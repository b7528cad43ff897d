/- ligref22.mark. -/
import Derived.Test.YtbckncopdkmoeaaLr1
import Derived.Test.YtbckncopdkmoeaaEv4
import Derived.Test.YtbckncopdkmoeaaLf5
import Derived.Deep.MidRow
import Derived.Deep.Cut
import Derived.BigRegion
import Derived.RegionTactic
import Derived.WalkKit
import Derived.ProofKit
import Derived.Handy
import Derived.Below
import Derived.Lib.Hide
import Derived.IntWalk
import Derived.Outline
import Derived.WalkLawsBesides
import Derived.WalkSpells
namespace Go.Proofs.Ytbckncopdkmoeaa
open Go.RowKit
attribute [local go_sem] strV
set_option linter.unusedVariables false
set_option linter.unusedSimpArgs false
theorem infoEnt2_row (e : Ent) : (Try.prog.info? 82).map (·.size) = some e.row.size := by
  rw [e.row_size]; kernel_rfl
theorem wpList_loadEnt2 {ops : Array Oper} {rest : List Oper} {op : Oper} {a : Act} {w : World} {Q : Exit → Act → World → Prop} (x : Operand) (ho : op.op = .load 82 x)
    (b o : Nat) (hx : a.eval x = .pointer (some ⟨b, o, none⟩)) (e : Ent) (hc : w.rangeAt b o e.L) (hw : Region.wanted op (yielded ops a.tmps) = true)
    (hK : wpList Try.prog ops Q rest (a.put op.dst (.agg e.row)) w) : wpList Try.prog ops Q (op :: rest) a w :=
  wpList_load_midH 82 x ho b o hx e.L _ hc Try.underlying82 rfl (infoEnt2_row e) hw hK
set_option maxRecDepth 100000 in
set_option maxHeartbeats 6400000 in
theorem refMark_1 (xsp : ByteArray) (xsc : Int) (xdp : ByteArray) (xdc xsq : Int) (xda : ByteArray) (xth xta : Int) (xack : ByteArray) (xse xre xwr xac xti : Bool) (sp : ByteArray) (sc : Int) (dp : ByteArray) (dc : Int) (sq : Int) (da : ByteArray) (th : Int) (ta : Int) (ack : ByteArray) (ep : ByteArray) (ec : Int) (ht : Int) (w : World) :
    Calls Try.prog 65 #[.agg #[.string xsp, .int .i64 xsc, .string xdp, .int .i64 xdc, .int .i64 xsq, .string xda, .int .i64 xth, .int .i64 xta, .string xack, .bool xse, .bool xre, .bool xwr, .bool xac, .bool xti], .agg #[.int .i64 1, .string sp, .int .i64 sc, .string dp, .int .i64 dc, .int .i64 sq, .string da, .int .i64 th, .int .i64 ta, .string ack, .string ep, .int .i64 ec, .int .i64 ht]] w fun e w' => e = .returned (.agg (⟨xsp, xsc, xdp, xdc, xsq, xda, xth, xta, xack, true, xre, xwr, xac, xti⟩ : Ent).row) ∧ Below w.heap.size w w' := by
  go_enter Try.func65, Try.ntmps65
  go_upto_region 11 with fail
  refine wp_nameE _ (fun W hW => ?_)
  have hx : W.heap[w.heap.size]? = some (.cells #[.string xsp, .int .i64 xsc, .string xdp, .int .i64 xdc, .int .i64 xsq, .string xda, .int .i64 xth, .int .i64 xta, .string xack, .bool true, .bool xre, .bool xwr, .bool xac, .bool xti] 82 (0, 0)) := by rw [hW]; exact al3_0 w _ _ _
  have hz : W.heap[w.heap.size + 2]? = some (.cells zeroEnt.row 82 (0, 0)) := by rw [hW]; exact al3_2 w _ _ _
  have hbW : Below w.heap.size w W := by rw [hW]; exact alloc3_below w _ _ _
  clear hW
  go_wp2_with (first | (refine wpList_loadEnt2 (.tmp 2) rfl w.heap.size 0 rfl (⟨xsp, xsc, xdp, xdc, xsq, xda, xth, xta, xack, true, xre, xwr, xac, xti⟩ : Ent) (ent_range hx) (by rfl) ?_) | (refine wpList_storeRowTo (Z := (⟨xsp, xsc, xdp, xdc, xsq, xda, xth, xta, xack, true, xre, xwr, xac, xti⟩ : Ent).row) rfl (.tmp 4) (.tmp 23) 82 rfl (infoEnt2_row _) rfl rfl hz rfl (Ent.row_one _) ?_))
  have hZ := setRow_heap _ _ zeroEnt.row (⟨xsp, xsc, xdp, xdc, xsq, xda, xth, xta, xack, true, xre, xwr, xac, xti⟩ : Ent).row _ _ hz
  have hrd := run_loadVar_mid (P := Try.prog) _ (w.heap.size + 2) 0 82 (⟨xsp, xsc, xdp, xdc, xsq, xda, xth, xta, xack, true, xre, xwr, xac, xti⟩ : Ent).L _ (ent_range hZ) Try.underlying82 rfl (infoEnt2_row (⟨xsp, xsc, xdp, xdc, xsq, xda, xth, xta, xack, true, xre, xwr, xac, xti⟩ : Ent))
  refine bodyPost_ret (v := .agg (⟨xsp, xsc, xdp, xdc, xsq, xda, xth, xta, xack, true, xre, xwr, xac, xti⟩ : Ent).row) ?_ rfl ?_
  · simp [results, Try.results65, asAddr]
    exact hrd
  exact ⟨rfl, below_setRow hbW (by omega) _⟩
set_option maxRecDepth 100000 in
set_option maxHeartbeats 6400000 in
theorem refMark_2 (xsp : ByteArray) (xsc : Int) (xdp : ByteArray) (xdc xsq : Int) (xda : ByteArray) (xth xta : Int) (xack : ByteArray) (xse xre xwr xac xti : Bool) (sp : ByteArray) (sc : Int) (dp : ByteArray) (dc : Int) (sq : Int) (da : ByteArray) (th : Int) (ta : Int) (ack : ByteArray) (ep : ByteArray) (ec : Int) (ht : Int) (w : World) :
    Calls Try.prog 65 #[.agg #[.string xsp, .int .i64 xsc, .string xdp, .int .i64 xdc, .int .i64 xsq, .string xda, .int .i64 xth, .int .i64 xta, .string xack, .bool xse, .bool xre, .bool xwr, .bool xac, .bool xti], .agg #[.int .i64 2, .string sp, .int .i64 sc, .string dp, .int .i64 dc, .int .i64 sq, .string da, .int .i64 th, .int .i64 ta, .string ack, .string ep, .int .i64 ec, .int .i64 ht]] w fun e w' => e = .returned (.agg (⟨xsp, xsc, xdp, xdc, xsq, xda, xth, xta, xack, xse, true, xwr, xac, xti⟩ : Ent).row) ∧ Below w.heap.size w w' := by
  go_enter Try.func65, Try.ntmps65
  go_upto_region 11 with fail
  refine wp_nameE _ (fun W hW => ?_)
  have hx : W.heap[w.heap.size]? = some (.cells #[.string xsp, .int .i64 xsc, .string xdp, .int .i64 xdc, .int .i64 xsq, .string xda, .int .i64 xth, .int .i64 xta, .string xack, .bool xse, .bool true, .bool xwr, .bool xac, .bool xti] 82 (0, 0)) := by rw [hW]; exact al3_0 w _ _ _
  have hz : W.heap[w.heap.size + 2]? = some (.cells zeroEnt.row 82 (0, 0)) := by rw [hW]; exact al3_2 w _ _ _
  have hbW : Below w.heap.size w W := by rw [hW]; exact alloc3_below w _ _ _
  clear hW
  go_wp2_with (first | (refine wpList_loadEnt2 (.tmp 2) rfl w.heap.size 0 rfl (⟨xsp, xsc, xdp, xdc, xsq, xda, xth, xta, xack, xse, true, xwr, xac, xti⟩ : Ent) (ent_range hx) (by rfl) ?_) | (refine wpList_storeRowTo (Z := (⟨xsp, xsc, xdp, xdc, xsq, xda, xth, xta, xack, xse, true, xwr, xac, xti⟩ : Ent).row) rfl (.tmp 4) (.tmp 23) 82 rfl (infoEnt2_row _) rfl rfl hz rfl (Ent.row_one _) ?_))
  have hZ := setRow_heap _ _ zeroEnt.row (⟨xsp, xsc, xdp, xdc, xsq, xda, xth, xta, xack, xse, true, xwr, xac, xti⟩ : Ent).row _ _ hz
  have hrd := run_loadVar_mid (P := Try.prog) _ (w.heap.size + 2) 0 82 (⟨xsp, xsc, xdp, xdc, xsq, xda, xth, xta, xack, xse, true, xwr, xac, xti⟩ : Ent).L _ (ent_range hZ) Try.underlying82 rfl (infoEnt2_row (⟨xsp, xsc, xdp, xdc, xsq, xda, xth, xta, xack, xse, true, xwr, xac, xti⟩ : Ent))
  refine bodyPost_ret (v := .agg (⟨xsp, xsc, xdp, xdc, xsq, xda, xth, xta, xack, xse, true, xwr, xac, xti⟩ : Ent).row) ?_ rfl ?_
  · simp [results, Try.results65, asAddr]
    exact hrd
  exact ⟨rfl, below_setRow hbW (by omega) _⟩
set_option maxRecDepth 100000 in
set_option maxHeartbeats 6400000 in
theorem refMark_3 (xsp : ByteArray) (xsc : Int) (xdp : ByteArray) (xdc xsq : Int) (xda : ByteArray) (xth xta : Int) (xack : ByteArray) (xse xre xwr xac xti : Bool) (sp : ByteArray) (sc : Int) (dp : ByteArray) (dc : Int) (sq : Int) (da : ByteArray) (th : Int) (ta : Int) (ack : ByteArray) (ep : ByteArray) (ec : Int) (ht : Int) (w : World) :
    Calls Try.prog 65 #[.agg #[.string xsp, .int .i64 xsc, .string xdp, .int .i64 xdc, .int .i64 xsq, .string xda, .int .i64 xth, .int .i64 xta, .string xack, .bool xse, .bool xre, .bool xwr, .bool xac, .bool xti], .agg #[.int .i64 3, .string sp, .int .i64 sc, .string dp, .int .i64 dc, .int .i64 sq, .string da, .int .i64 th, .int .i64 ta, .string ack, .string ep, .int .i64 ec, .int .i64 ht]] w fun e w' => e = .returned (.agg (⟨xsp, xsc, xdp, xdc, xsq, xda, xth, xta, ack, xse, xre, true, xac, xti⟩ : Ent).row) ∧ Below w.heap.size w w' := by
  go_enter Try.func65, Try.ntmps65
  go_upto_region 8 with fail
  refine wp_nameE _ (fun V hV => ?_)
  have hv : V.heap[w.heap.size]? = some (.cells #[.string xsp, .int .i64 xsc, .string xdp, .int .i64 xdc, .int .i64 xsq, .string xda, .int .i64 xth, .int .i64 xta, .string xack, .bool xse, .bool xre, .bool xwr, .bool xac, .bool xti] 82 (0, 0)) := by rw [hV]; exact al3_0 w _ _ _
  have hq : V.heap[w.heap.size + 1]? = some (.cells #[.int .i64 3, .string sp, .int .i64 sc, .string dp, .int .i64 dc, .int .i64 sq, .string da, .int .i64 th, .int .i64 ta, .string ack, .string ep, .int .i64 ec, .int .i64 ht] 76 (0, 0)) := by rw [hV]; exact alloc_mid w _ _ _
  have hzV : V.heap[w.heap.size + 2]? = some (.cells zeroEnt.row 82 (0, 0)) := by rw [hV]; exact al3_2 w _ _ _
  have hbV : Below w.heap.size w V := by rw [hV]; exact alloc3_below w _ _ _
  clear hV
  have v8 : V.cell? ⟨w.heap.size, 8, none⟩ = some (.string xack) := cell_heap hv 8
  have v11 : V.cell? ⟨w.heap.size, 11, none⟩ = some (.bool xwr) := cell_heap hv 11
  have q9 : V.cell? ⟨w.heap.size + 1, 9, none⟩ = some (.string ack) := cell_heap hq 9
  have f8 := frozen_heap hv 8
  have f11 := frozen_heap hv 11
  have hs1 : (V.setCell ⟨w.heap.size, 11, none⟩ (.bool true)).heap[w.heap.size]? = some (.cells #[.string xsp, .int .i64 xsc, .string xdp, .int .i64 xdc, .int .i64 xsq, .string xda, .int .i64 xth, .int .i64 xta, .string xack, .bool xse, .bool xre, .bool true, .bool xac, .bool xti] 82 (0, 0)) := (row_put5 hv).trans (congrArg (fun c => some (Obj.cells c 82 (0, 0))) (by simp))
  have hs2 : ((V.setCell ⟨w.heap.size, 11, none⟩ (.bool true)).setCell ⟨w.heap.size, 8, none⟩ (.string ack)).heap[w.heap.size]? = some (.cells #[.string xsp, .int .i64 xsc, .string xdp, .int .i64 xdc, .int .i64 xsq, .string xda, .int .i64 xth, .int .i64 xta, .string ack, .bool xse, .bool xre, .bool true, .bool xac, .bool xti] 82 (0, 0)) := (row_put5 hs1).trans (congrArg (fun c => some (Obj.cells c 82 (0, 0))) (by simp))
  have hs3 : ((V.setCell ⟨w.heap.size, 11, none⟩ (.bool true)).setCell ⟨w.heap.size, 8, none⟩ (.string ack)).heap[w.heap.size + 2]? = some (.cells zeroEnt.row 82 (0, 0)) := row_oth (row_oth hzV (by omega)) (by omega)
  have hs4 : Below w.heap.size w ((V.setCell ⟨w.heap.size, 11, none⟩ (.bool true)).setCell ⟨w.heap.size, 8, none⟩ (.string ack)) := set_below w.heap.size (set_below w.heap.size hbV 11 _) 8 _
  clear hv hq hzV hs1
  go_region
  all_goals
    go_upto_region 11 with fail
    refine wp_nameE _ (fun W hW => ?_)
    have hx : W.heap[w.heap.size]? = some (.cells #[.string xsp, .int .i64 xsc, .string xdp, .int .i64 xdc, .int .i64 xsq, .string xda, .int .i64 xth, .int .i64 xta, .string ack, .bool xse, .bool xre, .bool true, .bool xac, .bool xti] 82 (0, 0)) := by rw [hW]; exact hs2
    have hz : W.heap[w.heap.size + 2]? = some (.cells zeroEnt.row 82 (0, 0)) := by rw [hW]; exact hs3
    have hbW : Below w.heap.size w W := by rw [hW]; exact hs4.drew
    clear hW
    go_wp2_with (first | (refine wpList_loadEnt2 (.tmp 2) rfl w.heap.size 0 rfl (⟨xsp, xsc, xdp, xdc, xsq, xda, xth, xta, ack, xse, xre, true, xac, xti⟩ : Ent) (ent_range hx) (by rfl) ?_) | (refine wpList_storeRowTo (Z := (⟨xsp, xsc, xdp, xdc, xsq, xda, xth, xta, ack, xse, xre, true, xac, xti⟩ : Ent).row) rfl (.tmp 4) (.tmp 23) 82 rfl (infoEnt2_row _) rfl rfl hz rfl (Ent.row_one _) ?_))
    have hZ := setRow_heap _ _ zeroEnt.row (⟨xsp, xsc, xdp, xdc, xsq, xda, xth, xta, ack, xse, xre, true, xac, xti⟩ : Ent).row _ _ hz
    have hrd := run_loadVar_mid (P := Try.prog) _ (w.heap.size + 2) 0 82 (⟨xsp, xsc, xdp, xdc, xsq, xda, xth, xta, ack, xse, xre, true, xac, xti⟩ : Ent).L _ (ent_range hZ) Try.underlying82 rfl (infoEnt2_row (⟨xsp, xsc, xdp, xdc, xsq, xda, xth, xta, ack, xse, xre, true, xac, xti⟩ : Ent))
    refine bodyPost_ret (v := .agg (⟨xsp, xsc, xdp, xdc, xsq, xda, xth, xta, ack, xse, xre, true, xac, xti⟩ : Ent).row) ?_ rfl ?_
    · simp [results, Try.results65, asAddr]
      exact hrd
    exact ⟨rfl, below_setRow hbW (by omega) _⟩
set_option maxRecDepth 100000 in
set_option maxHeartbeats 6400000 in
theorem refMark_4 (xsp : ByteArray) (xsc : Int) (xdp : ByteArray) (xdc xsq : Int) (xda : ByteArray) (xth xta : Int) (xack : ByteArray) (xse xre xwr xac xti : Bool) (sp : ByteArray) (sc : Int) (dp : ByteArray) (dc : Int) (sq : Int) (da : ByteArray) (th : Int) (ta : Int) (ack : ByteArray) (ep : ByteArray) (ec : Int) (ht : Int) (w : World) :
    Calls Try.prog 65 #[.agg #[.string xsp, .int .i64 xsc, .string xdp, .int .i64 xdc, .int .i64 xsq, .string xda, .int .i64 xth, .int .i64 xta, .string xack, .bool xse, .bool xre, .bool xwr, .bool xac, .bool xti], .agg #[.int .i64 4, .string sp, .int .i64 sc, .string dp, .int .i64 dc, .int .i64 sq, .string da, .int .i64 th, .int .i64 ta, .string ack, .string ep, .int .i64 ec, .int .i64 ht]] w fun e w' => e = .returned (.agg (⟨xsp, xsc, xdp, xdc, xsq, xda, xth, xta, xack, xse, xre, xwr, true, xti⟩ : Ent).row) ∧ Below w.heap.size w w' := by
  go_enter Try.func65, Try.ntmps65
  go_upto_region 11 with fail
  refine wp_nameE _ (fun W hW => ?_)
  have hx : W.heap[w.heap.size]? = some (.cells #[.string xsp, .int .i64 xsc, .string xdp, .int .i64 xdc, .int .i64 xsq, .string xda, .int .i64 xth, .int .i64 xta, .string xack, .bool xse, .bool xre, .bool xwr, .bool true, .bool xti] 82 (0, 0)) := by rw [hW]; exact al3_0 w _ _ _
  have hz : W.heap[w.heap.size + 2]? = some (.cells zeroEnt.row 82 (0, 0)) := by rw [hW]; exact al3_2 w _ _ _
  have hbW : Below w.heap.size w W := by rw [hW]; exact alloc3_below w _ _ _
  clear hW
  go_wp2_with (first | (refine wpList_loadEnt2 (.tmp 2) rfl w.heap.size 0 rfl (⟨xsp, xsc, xdp, xdc, xsq, xda, xth, xta, xack, xse, xre, xwr, true, xti⟩ : Ent) (ent_range hx) (by rfl) ?_) | (refine wpList_storeRowTo (Z := (⟨xsp, xsc, xdp, xdc, xsq, xda, xth, xta, xack, xse, xre, xwr, true, xti⟩ : Ent).row) rfl (.tmp 4) (.tmp 23) 82 rfl (infoEnt2_row _) rfl rfl hz rfl (Ent.row_one _) ?_))
  have hZ := setRow_heap _ _ zeroEnt.row (⟨xsp, xsc, xdp, xdc, xsq, xda, xth, xta, xack, xse, xre, xwr, true, xti⟩ : Ent).row _ _ hz
  have hrd := run_loadVar_mid (P := Try.prog) _ (w.heap.size + 2) 0 82 (⟨xsp, xsc, xdp, xdc, xsq, xda, xth, xta, xack, xse, xre, xwr, true, xti⟩ : Ent).L _ (ent_range hZ) Try.underlying82 rfl (infoEnt2_row (⟨xsp, xsc, xdp, xdc, xsq, xda, xth, xta, xack, xse, xre, xwr, true, xti⟩ : Ent))
  refine bodyPost_ret (v := .agg (⟨xsp, xsc, xdp, xdc, xsq, xda, xth, xta, xack, xse, xre, xwr, true, xti⟩ : Ent).row) ?_ rfl ?_
  · simp [results, Try.results65, asAddr]
    exact hrd
  exact ⟨rfl, below_setRow hbW (by omega) _⟩
set_option maxRecDepth 100000 in
set_option maxHeartbeats 6400000 in
theorem refMark_5 (xsp : ByteArray) (xsc : Int) (xdp : ByteArray) (xdc xsq : Int) (xda : ByteArray) (xth xta : Int) (xack : ByteArray) (xse xre xwr xac xti : Bool) (kd : Int) (sp : ByteArray) (sc : Int) (dp : ByteArray) (dc : Int) (sq : Int) (da : ByteArray) (th : Int) (ta : Int) (ack : ByteArray) (ep : ByteArray) (ec : Int) (ht : Int) (w : World) (e1 : (kd == 1) = false) (e2 : (kd == 2) = false) (e3 : (kd == 3) = false) (e4 : (kd == 4) = false) :
    Calls Try.prog 65 #[.agg #[.string xsp, .int .i64 xsc, .string xdp, .int .i64 xdc, .int .i64 xsq, .string xda, .int .i64 xth, .int .i64 xta, .string xack, .bool xse, .bool xre, .bool xwr, .bool xac, .bool xti], .agg #[.int .i64 kd, .string sp, .int .i64 sc, .string dp, .int .i64 dc, .int .i64 sq, .string da, .int .i64 th, .int .i64 ta, .string ack, .string ep, .int .i64 ec, .int .i64 ht]] w fun e w' => e = .returned (.agg (⟨xsp, xsc, xdp, xdc, xsq, xda, xth, xta, xack, xse, xre, xwr, xac, true⟩ : Ent).row) ∧ Below w.heap.size w w' := by
  go_enter Try.func65, Try.ntmps65
  go_upto_region 11 with fail
  refine wp_nameE _ (fun W hW => ?_)
  have hx : W.heap[w.heap.size]? = some (.cells #[.string xsp, .int .i64 xsc, .string xdp, .int .i64 xdc, .int .i64 xsq, .string xda, .int .i64 xth, .int .i64 xta, .string xack, .bool xse, .bool xre, .bool xwr, .bool xac, .bool true] 82 (0, 0)) := by rw [hW]; exact al3_0 w _ _ _
  have hz : W.heap[w.heap.size + 2]? = some (.cells zeroEnt.row 82 (0, 0)) := by rw [hW]; exact al3_2 w _ _ _
  have hbW : Below w.heap.size w W := by rw [hW]; exact alloc3_below w _ _ _
  clear hW
  go_wp2_with (first | (refine wpList_loadEnt2 (.tmp 2) rfl w.heap.size 0 rfl (⟨xsp, xsc, xdp, xdc, xsq, xda, xth, xta, xack, xse, xre, xwr, xac, true⟩ : Ent) (ent_range hx) (by rfl) ?_) | (refine wpList_storeRowTo (Z := (⟨xsp, xsc, xdp, xdc, xsq, xda, xth, xta, xack, xse, xre, xwr, xac, true⟩ : Ent).row) rfl (.tmp 4) (.tmp 23) 82 rfl (infoEnt2_row _) rfl rfl hz rfl (Ent.row_one _) ?_))
  have hZ := setRow_heap _ _ zeroEnt.row (⟨xsp, xsc, xdp, xdc, xsq, xda, xth, xta, xack, xse, xre, xwr, xac, true⟩ : Ent).row _ _ hz
  have hrd := run_loadVar_mid (P := Try.prog) _ (w.heap.size + 2) 0 82 (⟨xsp, xsc, xdp, xdc, xsq, xda, xth, xta, xack, xse, xre, xwr, xac, true⟩ : Ent).L _ (ent_range hZ) Try.underlying82 rfl (infoEnt2_row (⟨xsp, xsc, xdp, xdc, xsq, xda, xth, xta, xack, xse, xre, xwr, xac, true⟩ : Ent))
  refine bodyPost_ret (v := .agg (⟨xsp, xsc, xdp, xdc, xsq, xda, xth, xta, xack, xse, xre, xwr, xac, true⟩ : Ent).row) ?_ rfl ?_
  · simp [results, Try.results65, asAddr]
    exact hrd
  exact ⟨rfl, below_setRow hbW (by omega) _⟩
theorem refMark_any (x : Ent) (kd : Int) (sp : ByteArray) (sc : Int) (dp : ByteArray) (dc : Int) (sq : Int) (da : ByteArray) (th : Int) (ta : Int) (ack : ByteArray) (ep : ByteArray) (ec : Int) (ht : Int) (w : World) :
    Calls Try.prog 65 #[.agg x.row, .agg #[.int .i64 kd, .string sp, .int .i64 sc, .string dp, .int .i64 dc, .int .i64 sq, .string da, .int .i64 th, .int .i64 ta, .string ack, .string ep, .int .i64 ec, .int .i64 ht]] w fun e w' => e = .returned (.agg (markR x kd ack).row) ∧ Below w.heap.size w w' := by
  obtain ⟨xsp, xsc, xdp, xdc, xsq, xda, xth, xta, xack, xse, xre, xwr, xac, xti⟩ := x
  by_cases k1 : kd = 1
  · subst k1; exact refMark_1 xsp xsc xdp xdc xsq xda xth xta xack xse xre xwr xac xti sp sc dp dc sq da th ta ack ep ec ht w
  by_cases k2 : kd = 2
  · subst k2; exact refMark_2 xsp xsc xdp xdc xsq xda xth xta xack xse xre xwr xac xti sp sc dp dc sq da th ta ack ep ec ht w
  by_cases k3 : kd = 3
  · subst k3; exact refMark_3 xsp xsc xdp xdc xsq xda xth xta xack xse xre xwr xac xti sp sc dp dc sq da th ta ack ep ec ht w
  by_cases k4 : kd = 4
  · subst k4; exact refMark_4 xsp xsc xdp xdc xsq xda xth xta xack xse xre xwr xac xti sp sc dp dc sq da th ta ack ep ec ht w
  have h : markR ⟨xsp, xsc, xdp, xdc, xsq, xda, xth, xta, xack, xse, xre, xwr, xac, xti⟩ kd ack = { (⟨xsp, xsc, xdp, xdc, xsq, xda, xth, xta, xack, xse, xre, xwr, xac, xti⟩ : Ent) with ti := true } := by unfold markR; rw [if_neg k1, if_neg k2, if_neg k3, if_neg k4]
  rw [h]
  exact refMark_5 xsp xsc xdp xdc xsq xda xth xta xack xse xre xwr xac xti kd sp sc dp dc sq da th ta ack ep ec ht w (beq_eq_false_iff_ne.2 k1) (beq_eq_false_iff_ne.2 k2) (beq_eq_false_iff_ne.2 k3) (beq_eq_false_iff_ne.2 k4)
end Go.Proofs.Ytbckncopdkmoeaa
