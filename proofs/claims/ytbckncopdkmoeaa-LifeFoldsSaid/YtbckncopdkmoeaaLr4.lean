/- ligref22.Table.Get, Stage. -/
import Derived.Test.YtbckncopdkmoeaaLr2
import Derived.Test.YtbckncopdkmoeaaLr3
import Derived.Deep.MidRow
import Derived.Deep.Cut
import Derived.WalkKit
import Derived.ProofKit
import Derived.Handy
import Derived.Below
import Derived.Lib.Hide
import Derived.IntWalk
import Derived.Outline
import Derived.WalkLawsBesides
import Derived.WalkSpells
namespace Go.Proofs.Ytbckncopdkmoeaa
open Go.RowKit
attribute [local go_sem] strV
set_option linter.unusedVariables false
set_option linter.unusedSimpArgs false
noncomputable def getE (ks : List Lk) (es : List Ent) (k : Lk) : Ent := if findB ks k = true then (es[findI ks k]?).getD zeroEnt else zeroEnt
open Classical in
theorem find_lt {ks : List Lk} {k : Lk} (h : findB ks k = true) : findI ks k < ks.length := by
  unfold findB at h
  have h1 := of_decide_eq_true h
  exact (List.getElem?_eq_some_iff.1 h1).1
theorem wpList_loadLk2R {ops : Array Oper} {rest : List Oper} {op : Oper} {a : Act} {w : World} {Q : Exit → Act → World → Prop} (x : Operand) (ho : op.op = .load 81 x)
    (b o : Nat) (hx : a.eval x = .pointer (some ⟨b, o, none⟩)) (k : Lk) (hc : w.rangeAt b o k.L) (hw : Region.wanted op (yielded ops a.tmps) = true)
    (hK : wpList Try.prog ops Q rest (a.put op.dst (.agg k.row)) w) : wpList Try.prog ops Q (op :: rest) a w :=
  wpList_load_midH 81 x ho b o hx k.L _ hc Try.underlying81 rfl (infoLk2R k) hw hK
theorem ent_at {w : World} {a : Option Addr} {es : List Ent} (h : RowAt w a (es.flatMap Ent.L)) {k : Nat} (hk : k < es.length) : ∃ b off, a = some ⟨b, off, none⟩ ∧ b < w.heap.size ∧ w.rangeAt b (off + k * 14) es[k].L := by
  have hl : ∀ x : Ent, (Ent.L x).length = 14 := fun x => rfl
  obtain ⟨b, off, ha, hb, hc⟩ := h.elem hl hk (by omega)
  refine ⟨b, off, ha, hb, fun j v hv => ?_⟩
  have hj : j < 14 := by have := (List.getElem?_eq_some_iff.1 hv).1; simpa [Ent.L] using this
  rw [Nat.add_assoc, hc j hj]; exact hv
set_option maxRecDepth 100000 in
set_option maxHeartbeats 3200000 in
theorem refGet_any (d : Nat) (ak : Option Addr) (nk ck : Nat) (ae : Option Addr) (ne ce : Nat) (u : Value) (ks : List Lk) (es : List Ent) (k : Lk) (w : World) (hd : w.heap[d]? = some (.cells #[.slice ak nk ck, .slice ae ne ce, u] 71 (0, 0))) (hr : RowAt w ak (ks.flatMap Lk.L)) (hre : RowAt w ae (es.flatMap Ent.L)) (hn : ks.length = nk) (hne : es.length = ne) (hee : nk = ne) (hm : nk ≤ 100000) :
    Calls Try.prog 35 #[.pointer (some ⟨d, 0, none⟩), .agg k.row] w fun e w' => e = .returned (.tuple #[.agg (getE ks es k).row, .bool (findB ks k)]) ∧ Below w.heap.size w w' := by
  obtain ⟨r, hr9⟩ : ∃ r, findB ks k = r := ⟨_, rfl⟩
  have hlt : r = true → findI ks k < ne := fun h => by rw [← hee, ← hn]; exact find_lt (by rw [hr9, h])
  have HE := Lib.hid (show getE ks es k = if r = true then (es[findI ks k]?).getD zeroEnt else zeroEnt by unfold getE; rw [hr9])
  have CF := fun W h1 h2 => refFind_any d ak nk ck (.slice ae ne ce) u ks k W h1 h2 hn hm
  rw [hr9] at CF ⊢
  generalize findI ks k = i at CF hlt HE
  generalize getE ks es k = E at HE ⊢
  clear hr9
  have hq0 := al2_0 w (.cells k.row 81) (.cells zeroEnt.row 82)
  have hz0 := al2_1 w (.cells k.row 81) (.cells zeroEnt.row 82)
  have hb0 := al2_below w (.cells k.row 81) (.cells zeroEnt.row 82)
  go_enter Try.func35, Try.ntmps35
  go_upto_region 1 with fail
  refine wp_nameE _ (fun W1 hW1 => ?_)
  have hq : W1.heap[w.heap.size]? = some (.cells k.row 81 (0, 0)) := by rw [hW1]; exact hq0
  have hz : W1.heap[w.heap.size + 1]? = some (.cells zeroEnt.row 82 (0, 0)) := by rw [hW1]; exact hz0
  have hb1 : Below w.heap.size w W1 := by rw [hW1]; exact hb0
  clear hW1 hq0 hz0 hb0
  have hd1 := cells_of hd hb1 (row_lt hd)
  have hr1 := hr.below hb1
  go_upto_region 2 with (first | (refine wpList_loadLk2R (.tmp 3) rfl w.heap.size 0 rfl k (row_range4 hq) (by rfl) ?_) | (go_at_call 64; refine (CF _ hd1 hr1).mono ?_; rintro e W2 ⟨rfl, hb2⟩))
  have hz := cells_of hz hb2 (row_lt hz)
  have hd2 := cells_of hd1 hb2 (row_lt hd1)
  have hbel := hb1.trans (hb2.mono hb1.size)
  have hre2 := hre.below hbel
  have dc : W2.cell? ⟨d, 1, none⟩ = some (.slice ae ne ce) := cell_heap hd2 1
  clear CF hq hb2 hr1 hd1
  cases r
  · obtain rfl : E = zeroEnt := by rw [HE.out]; exact if_neg (by decide)
    go_wp2_with (refine wpList_storeRowTo (Z := zeroEnt.row) rfl (.tmp 4) (.tmp 16) 82 rfl (infoEnt2_row _) rfl rfl hz rfl (Ent.row_one _) ?_)
    have hZ := setRow_heap _ _ zeroEnt.row zeroEnt.row _ _ hz
    have hrd := run_loadVar_mid (P := Try.prog) _ (w.heap.size + 1) 0 82 zeroEnt.L _ (ent_range hZ) Try.underlying82 rfl (infoEnt2_row zeroEnt)
    refine bodyPost_ret (v := .tuple #[.agg zeroEnt.row, .bool false]) ?_ rfl ?_
    · simp [results, Try.results35, asAddr]
      exact (congrArg (fun q => q.andThen fun a w' => Result.ok (Value.tuple #[a, Value.bool false]) w') hrd).trans rfl
    exact ⟨rfl, below_setRow hbel (Nat.le_succ _) _⟩
  · have hi := hlt rfl
    have hie : i < es.length := by rw [hne]; exact hi
    obtain ⟨b, off, rfl, hbx, hrg⟩ := ent_at hre2 hie
    have hEi : E = es[i] := by rw [HE.out, if_pos rfl, List.getElem?_eq_getElem hie]; rfl
    rw [← hEi] at hrg
    clear hEi
    have n0 : (0 : Int) ≤ (i : Int) := by omega
    have n1 : (i : Int) < (ne : Int) := by omega
    have n2' : ((i : Nat) : Int).toNat = i := by omega
    go_wp2_with (first | (refine wpList_loadEnt2 (.tmp 22) rfl b (off + i * 14) rfl E hrg (by rfl) ?_) | (refine wpList_storeRowTo (Z := E.row) rfl (.tmp 4) (.tmp 23) 82 rfl (infoEnt2_row _) rfl rfl hz rfl (Ent.row_one _) ?_))
    have hZ := setRow_heap _ _ zeroEnt.row E.row _ _ hz
    have hrd := run_loadVar_mid (P := Try.prog) _ (w.heap.size + 1) 0 82 E.L _ (ent_range hZ) Try.underlying82 rfl (infoEnt2_row E)
    refine bodyPost_ret (v := .tuple #[.agg E.row, .bool true]) ?_ rfl ?_
    · simp [results, Try.results35, asAddr]
      exact (congrArg (fun q => q.andThen fun a w' => Result.ok (Value.tuple #[a, Value.bool true]) w') hrd).trans rfl
    exact ⟨rfl, below_setRow hbel (Nat.le_succ _) _⟩
set_option maxRecDepth 100000 in
set_option maxHeartbeats 6400000 in
theorem refStage_any (d : Nat) (ak : Option Addr) (nk ck : Nat) (ae : Option Addr) (ne ce : Nat) (u : Value) (ks : List Lk) (es : List Ent) (k : Lk) (w : World) (hd : w.heap[d]? = some (.cells #[.slice ak nk ck, .slice ae ne ce, u] 71 (0, 0))) (hr : RowAt w ak (ks.flatMap Lk.L)) (hre : RowAt w ae (es.flatMap Ent.L)) (hn : ks.length = nk) (hne : es.length = ne) (hee : nk = ne) (hm : nk ≤ 100000) :
    Calls Try.prog 37 #[.pointer (some ⟨d, 0, none⟩), .agg k.row] w fun e w' => e = .returned (.int .i64 (stgB (findB ks k) k.ou (getE ks es k).wr (getE ks es k).ac (getE ks es k).ti)) ∧ Below w.heap.size w w' := by
  have CG := fun W h1 h2 h3 => refGet_any d ak nk ck ae ne ce u ks es k W h1 h2 h3 hn hne hee hm
  generalize findB ks k = r at CG ⊢
  generalize getE ks es k = E at CG ⊢
  obtain ⟨s, hs⟩ : ∃ s, stgB r k.ou E.wr E.ac E.ti = s := ⟨_, rfl⟩
  rw [hs]
  have HST0 := Lib.hid hs
  clear hs
  have hq0 := heap_push w k.row 81
  have hb0 : Below w.heap.size w (w.alloc (.cells k.row 81)) := (Below.refl _ _).alloc (Nat.le_refl _) _
  go_enter Try.func37, Try.ntmps37
  go_upto_region 1 with fail
  refine wp_nameE _ (fun W1 hW1 => ?_)
  have hq : W1.heap[w.heap.size]? = some (.cells k.row 81 (0, 0)) := by rw [hW1]; exact hq0
  have hb1 : Below w.heap.size w W1 := by rw [hW1]; exact hb0
  clear hW1 hq0 hb0
  have hd1 := cells_of hd hb1 (row_lt hd)
  have hr1 := hr.below hb1
  have hre1 := hre.below hb1
  go_upto_region 2 with (first | (refine wpList_loadLk2R (.tmp 3) rfl w.heap.size 0 rfl k (row_range4 hq) (by rfl) ?_) | (go_at_call 35; refine (CG _ hd1 hr1 hre1).mono ?_; rintro e W2 ⟨rfl, hb2⟩) | (refine wpList_storeRowTo (Z := E.row) rfl (.tmp 5) (.tmp 11) 82 rfl (infoEnt2_row _) rfl rfl (heap_push _ zeroEnt.row 82) rfl (Ent.row_one _) ?_))
  refine wp_nameE _ (fun W hW => ?_)
  have hx : W.heap[W2.heap.size]? = some (.cells E.row 82 (0, 0)) := by rw [hW]; exact setRow_heap _ _ zeroEnt.row E.row _ _ (heap_push W2 zeroEnt.row 82)
  have hbW : Below W2.heap.size W2 W := by rw [hW]; exact below_setRow ((Below.refl _ _).alloc (Nat.le_refl _) _) (Nat.le_refl _) _
  clear hW
  have hq := cells_of (cells_of hq hb2 (row_lt hq)) hbW (Nat.lt_of_lt_of_le (row_lt hq) hb2.size)
  have hbel := (hb1.trans (hb2.mono hb1.size)).trans (hbW.mono (hb1.trans (hb2.mono hb1.size)).size)
  have pk : W.cell? ⟨w.heap.size, 2, none⟩ = some (.bool k.ou) := cell_heap hq 2
  have p11 : W.cell? ⟨W2.heap.size, 11, none⟩ = some (.bool E.wr) := cell_heap hx 11
  have p12 : W.cell? ⟨W2.heap.size, 12, none⟩ = some (.bool E.ac) := cell_heap hx 12
  have p13 : W.cell? ⟨W2.heap.size, 13, none⟩ = some (.bool E.ti) := cell_heap hx 13
  clear hx hq hbW hb2 hr1 hre1 hd1 CG
  obtain ⟨x1, g1⟩ : ∃ q, k.ou = q := ⟨_, rfl⟩
  obtain ⟨x2, g2⟩ : ∃ q, E.wr = q := ⟨_, rfl⟩
  obtain ⟨x3, g3⟩ : ∃ q, E.ac = q := ⟨_, rfl⟩
  obtain ⟨x4, g4⟩ : ∃ q, E.ti = q := ⟨_, rfl⟩
  have HST : Hid (stgB r x1 x2 x3 x4 = s) := Lib.hid (by rw [← g1, ← g2, ← g3, ← g4]; exact HST0.out)
  rw [g1] at pk
  rw [g2] at p11
  rw [g3] at p12
  rw [g4] at p13
  clear g1 g2 g3 g4 HST0
  cases r <;> cases x1 <;> cases x2 <;> cases x3 <;> cases x4
  all_goals (obtain rfl := HST.out; go_wp2; go_ret; exact ⟨by first | rfl | simp [stgB], hbel⟩)
end Go.Proofs.Ytbckncopdkmoeaa
