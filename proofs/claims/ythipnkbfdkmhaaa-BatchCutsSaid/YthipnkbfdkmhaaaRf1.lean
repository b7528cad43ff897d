/- The document's messages without the fields that their kind does not have. -/
import Derived.Test.YthipnkbfdkmhaaaMsg3
import Derived.BigRegion
import Derived.RegionTactic
import Derived.Deep.Upon
import Derived.WalkKit
import Derived.ProofKit
import Derived.Handy
import Derived.Below
import Derived.Lib.Hide
import Derived.IntWalk
import Derived.Outline
import Derived.WalkLawsBesides
import Derived.WalkSpells
namespace Go.Proofs.Ythipnkbfdkmhaaa
open Go.RowKit
attribute [local go_sem] strV
set_option linter.unusedVariables false
set_option maxRecDepth 100000 in
set_option maxHeartbeats 4000000 in
theorem refPlain_2 (hh : Int) (ht : Int) (rt : H32) (sp : ByteArray) (sc : Int) (dp : ByteArray) (dc : Int) (sq : Int) (da : ByteArray) (th : Int) (ta : Int) (ack : ByteArray) (nx : Int) (he : Int) (pct : Int) (pa : Option Addr) (pn : Nat) (pc : Nat) (pxs : List LeafV) (cct : Int) (ca : Option Addr) (cn : Nat) (cc : Nat) (cxs : List LeafV) (w : World) :
    Calls Try.prog 25 #[.agg (⟨2, hh, ht, rt, sp, sc, dp, dc, sq, da, th, ta, ack, nx, he, pct, pa, pn, pc, pxs, cct, ca, cn, cc, cxs⟩ : MsgV).row] w fun e w' => e = .returned (.agg (⟨2, hh, ht, rt, sp, sc, dp, dc, sq, da, th, ta, ack, nx, he, pct, pa, pn, pc, pxs, cct, ca, cn, cc, cxs⟩ : MsgV).plain.row) ∧ Below w.heap.size w w' := by
  obtain ⟨RW, hRW⟩ : ∃ q : MsgV, (⟨2, hh, ht, rt, sp, sc, dp, dc, sq, da, th, ta, ack, nx, he, pct, pa, pn, pc, pxs, cct, ca, cn, cc, cxs⟩ : MsgV).plain = q := ⟨_, rfl⟩
  have hrow : RW.row = ((MsgV.zero 2).front ++ [Value.string sp, Value.int .i64 sc, Value.string dp, Value.int .i64 dc, Value.int .i64 sq, Value.string da, Value.int .i64 th, Value.int .i64 ta, Value.string ⟨#[]⟩, Value.int .i64 0, Value.int .i64 he, Value.int .i64 pct, Value.slice pa pn pc, Value.int .i64 0, Value.slice none 0 0]).toArray := by rw [← hRW, MsgV.row_split]; rfl
  rw [hRW]
  have HPL := Lib.hid (rfl : RW.row = RW.row)
  have HROW := Lib.hid hrow
  have hF : (MsgV.zero 2).front.length = 35 := MsgV.front_len _
  clear hrow hRW
  have hx0 := al2_0 w (.cells (⟨2, hh, ht, rt, sp, sc, dp, dc, sq, da, th, ta, ack, nx, he, pct, pa, pn, pc, pxs, cct, ca, cn, cc, cxs⟩ : MsgV).row 34) (.cells #[.int .i64 0, .int .i64 0, .int .i64 0, Value.int .u8 0, Value.int .u8 0, Value.int .u8 0, Value.int .u8 0, Value.int .u8 0, Value.int .u8 0, Value.int .u8 0, Value.int .u8 0, Value.int .u8 0, Value.int .u8 0, Value.int .u8 0, Value.int .u8 0, Value.int .u8 0, Value.int .u8 0, Value.int .u8 0, Value.int .u8 0, Value.int .u8 0, Value.int .u8 0, Value.int .u8 0, Value.int .u8 0, Value.int .u8 0, Value.int .u8 0, Value.int .u8 0, Value.int .u8 0, Value.int .u8 0, Value.int .u8 0, Value.int .u8 0, Value.int .u8 0, Value.int .u8 0, Value.int .u8 0, Value.int .u8 0, Value.int .u8 0, .string ⟨#[]⟩, .int .i64 0, .string ⟨#[]⟩, .int .i64 0, .int .i64 0, .string ⟨#[]⟩, .int .i64 0, .int .i64 0, .string ⟨#[]⟩, .int .i64 0, .int .i64 0, .int .i64 0, .slice none 0 0, .int .i64 0, .slice none 0 0] 34)
  have hr0 := al2_1 w (.cells (⟨2, hh, ht, rt, sp, sc, dp, dc, sq, da, th, ta, ack, nx, he, pct, pa, pn, pc, pxs, cct, ca, cn, cc, cxs⟩ : MsgV).row 34) (.cells #[.int .i64 0, .int .i64 0, .int .i64 0, Value.int .u8 0, Value.int .u8 0, Value.int .u8 0, Value.int .u8 0, Value.int .u8 0, Value.int .u8 0, Value.int .u8 0, Value.int .u8 0, Value.int .u8 0, Value.int .u8 0, Value.int .u8 0, Value.int .u8 0, Value.int .u8 0, Value.int .u8 0, Value.int .u8 0, Value.int .u8 0, Value.int .u8 0, Value.int .u8 0, Value.int .u8 0, Value.int .u8 0, Value.int .u8 0, Value.int .u8 0, Value.int .u8 0, Value.int .u8 0, Value.int .u8 0, Value.int .u8 0, Value.int .u8 0, Value.int .u8 0, Value.int .u8 0, Value.int .u8 0, Value.int .u8 0, Value.int .u8 0, .string ⟨#[]⟩, .int .i64 0, .string ⟨#[]⟩, .int .i64 0, .int .i64 0, .string ⟨#[]⟩, .int .i64 0, .int .i64 0, .string ⟨#[]⟩, .int .i64 0, .int .i64 0, .int .i64 0, .slice none 0 0, .int .i64 0, .slice none 0 0] 34)
  have hbA := al2_below w (.cells (⟨2, hh, ht, rt, sp, sc, dp, dc, sq, da, th, ta, ack, nx, he, pct, pa, pn, pc, pxs, cct, ca, cn, cc, cxs⟩ : MsgV).row 34) (.cells #[.int .i64 0, .int .i64 0, .int .i64 0, Value.int .u8 0, Value.int .u8 0, Value.int .u8 0, Value.int .u8 0, Value.int .u8 0, Value.int .u8 0, Value.int .u8 0, Value.int .u8 0, Value.int .u8 0, Value.int .u8 0, Value.int .u8 0, Value.int .u8 0, Value.int .u8 0, Value.int .u8 0, Value.int .u8 0, Value.int .u8 0, Value.int .u8 0, Value.int .u8 0, Value.int .u8 0, Value.int .u8 0, Value.int .u8 0, Value.int .u8 0, Value.int .u8 0, Value.int .u8 0, Value.int .u8 0, Value.int .u8 0, Value.int .u8 0, Value.int .u8 0, Value.int .u8 0, Value.int .u8 0, Value.int .u8 0, Value.int .u8 0, .string ⟨#[]⟩, .int .i64 0, .string ⟨#[]⟩, .int .i64 0, .int .i64 0, .string ⟨#[]⟩, .int .i64 0, .int .i64 0, .string ⟨#[]⟩, .int .i64 0, .int .i64 0, .int .i64 0, .slice none 0 0, .int .i64 0, .slice none 0 0] 34)
  go_enter Try.func25, Try.ntmps25
  go_upto_region 1 with fail
  refine wp_nameE _ (fun W0 hX => ?_)
  have hx : W0.heap[w.heap.size]? = some (.cells (⟨2, hh, ht, rt, sp, sc, dp, dc, sq, da, th, ta, ack, nx, he, pct, pa, pn, pc, pxs, cct, ca, cn, cc, cxs⟩ : MsgV).row 34 (0, 0)) := by rw [hX]; exact hx0
  have hr : W0.heap[w.heap.size + 1]? = some (.cells #[.int .i64 0, .int .i64 0, .int .i64 0, Value.int .u8 0, Value.int .u8 0, Value.int .u8 0, Value.int .u8 0, Value.int .u8 0, Value.int .u8 0, Value.int .u8 0, Value.int .u8 0, Value.int .u8 0, Value.int .u8 0, Value.int .u8 0, Value.int .u8 0, Value.int .u8 0, Value.int .u8 0, Value.int .u8 0, Value.int .u8 0, Value.int .u8 0, Value.int .u8 0, Value.int .u8 0, Value.int .u8 0, Value.int .u8 0, Value.int .u8 0, Value.int .u8 0, Value.int .u8 0, Value.int .u8 0, Value.int .u8 0, Value.int .u8 0, Value.int .u8 0, Value.int .u8 0, Value.int .u8 0, Value.int .u8 0, Value.int .u8 0, .string ⟨#[]⟩, .int .i64 0, .string ⟨#[]⟩, .int .i64 0, .int .i64 0, .string ⟨#[]⟩, .int .i64 0, .int .i64 0, .string ⟨#[]⟩, .int .i64 0, .int .i64 0, .int .i64 0, .slice none 0 0, .int .i64 0, .slice none 0 0] 34 (0, 0)) := by rw [hX]; exact hr0
  have hbel : Below w.heap.size w W0 := by rw [hX]; exact hbA
  clear hX hx0 hr0 hbA
  have hrl : w.heap.size + 1 < W0.heap.size := (Array.getElem?_eq_some_iff.1 hr).1
  obtain ⟨q0, q1, q2, q3, q4, q5, q6, q7, q8, q9, q10, q11, q12, q13, q14, q15, q16, q17⟩ := msg_cells hx
  simp only at q0 q1 q2 q3 q4 q5 q6 q7 q8 q9 q10 q11 q12 q13 q14 q15 q16 q17
  go_step
  go_step
  go_step
  go_step
  go_step
  go_step
  go_step
  refine wpList_build1 rfl 34 0 (.tmp 5) rfl rfl (build_msg 2 _) ?_
  go_step
  go_step
  go_step
  refine wpList_storeRowTo (Z := (MsgV.zero 2).row) rfl (.tmp 3) (.tmp 6) 34 rfl (by rw [MsgV.row_size]; kernel_rfl) rfl (by rfl) (heap_push _ _ _) (by rw [MsgV.row_size]; rfl) (MsgV.row_one _) ?_
  go_step
  simp only [Act.put]
  go_upto_region 2 with fail
  refine wp_nameE _ (fun W1 hX => ?_)
  have hb01 : Below W0.heap.size W0 W1 := by rw [hX]; exact below_setRow (Below.alloc (Below.refl _ _) (Nat.le_refl _) _) (Nat.le_refl _) _
  have hy : W1.heap[W0.heap.size]? = some (.cells (MsgV.zero 2).row 34 (0, 0)) := by rw [hX]; exact setRow_heap _ _ _ _ _ _ (heap_push _ _ _)
  have hx := cells_of hx hb01 (by omega)
  have hr := cells_of hr hb01 hrl
  have hbel := hbel.trans (hb01.mono hbel.size)
  obtain ⟨g, hgg⟩ : ∃ g, W0.heap.size = g := ⟨_, rfl⟩
  rw [hgg] at hy hrl
  simp only [hgg]
  clear hX hb01 hgg q0 q1 q2 q3 q4 q5 q6 q7 q8 q9 q10 q11 q12 q13 q14 q15 q16 q17
  obtain ⟨q0, q1, q2, q3, q4, q5, q6, q7, q8, q9, q10, q11, q12, q13, q14, q15, q16, q17⟩ := msg_cells hx
  simp only at q0 q1 q2 q3 q4 q5 q6 q7 q8 q9 q10 q11 q12 q13 q14 q15 q16 q17
  have hy9 := hy
  obtain ⟨z0, z1, z2, z3, z4, z5, z6, z7, z8, z9, z10, z11, z12, z13, z14, z15, z16, z17⟩ := msg_cells hy9
  simp only [MsgV.zero] at z0 z1 z2 z3 z4 z5 z6 z7 z8 z9 z10 z11 z12 z13 z14 z15 z16 z17
  rw [MsgV.row_split] at hy
  go_upto_region 6 with fail
  have f35 := frozen_heap hy 35
  have f36 := frozen_heap hy 36
  have f37 := frozen_heap hy 37
  have f38 := frozen_heap hy 38
  have f39 := frozen_heap hy 39
  have f40 := frozen_heap hy 40
  have f41 := frozen_heap hy 41
  have f42 := frozen_heap hy 42
  have f46 := frozen_heap hy 46
  have f47 := frozen_heap hy 47
  have f45 := frozen_heap hy 45
  go_region
  all_goals
    go_upto_region 13 with fail
    refine wp_nameE _ (fun W2 hX => ?_)
    have u35 := back_put hF hy 0 (.string sp)
    have v35 := row_oth (g := g) (k := 35) (v := .string sp) hr (by omega)
    have u36 := back_put hF u35 1 (.int .i64 sc)
    have v36 := row_oth (g := g) (k := 36) (v := .int .i64 sc) v35 (by omega)
    have u37 := back_put hF u36 2 (.string dp)
    have v37 := row_oth (g := g) (k := 37) (v := .string dp) v36 (by omega)
    have u38 := back_put hF u37 3 (.int .i64 dc)
    have v38 := row_oth (g := g) (k := 38) (v := .int .i64 dc) v37 (by omega)
    have u39 := back_put hF u38 4 (.int .i64 sq)
    have v39 := row_oth (g := g) (k := 39) (v := .int .i64 sq) v38 (by omega)
    have u40 := back_put hF u39 5 (.string da)
    have v40 := row_oth (g := g) (k := 40) (v := .string da) v39 (by omega)
    have u41 := back_put hF u40 6 (.int .i64 th)
    have v41 := row_oth (g := g) (k := 41) (v := .int .i64 th) v40 (by omega)
    have u42 := back_put hF u41 7 (.int .i64 ta)
    have v42 := row_oth (g := g) (k := 42) (v := .int .i64 ta) v41 (by omega)
    have u46 := back_put hF u42 11 (.int .i64 pct)
    have v46 := row_oth (g := g) (k := 46) (v := .int .i64 pct) v42 (by omega)
    have u47 := back_put hF u46 12 (.slice pa pn pc)
    have v47 := row_oth (g := g) (k := 47) (v := .slice pa pn pc) v46 (by omega)
    have u45 := back_put hF u47 10 (.int .i64 he)
    have v45 := row_oth (g := g) (k := 45) (v := .int .i64 he) v47 (by omega)
    have hr2 : W2.heap[w.heap.size + 1]? = some (.cells #[.int .i64 0, .int .i64 0, .int .i64 0, Value.int .u8 0, Value.int .u8 0, Value.int .u8 0, Value.int .u8 0, Value.int .u8 0, Value.int .u8 0, Value.int .u8 0, Value.int .u8 0, Value.int .u8 0, Value.int .u8 0, Value.int .u8 0, Value.int .u8 0, Value.int .u8 0, Value.int .u8 0, Value.int .u8 0, Value.int .u8 0, Value.int .u8 0, Value.int .u8 0, Value.int .u8 0, Value.int .u8 0, Value.int .u8 0, Value.int .u8 0, Value.int .u8 0, Value.int .u8 0, Value.int .u8 0, Value.int .u8 0, Value.int .u8 0, Value.int .u8 0, Value.int .u8 0, Value.int .u8 0, Value.int .u8 0, Value.int .u8 0, .string ⟨#[]⟩, .int .i64 0, .string ⟨#[]⟩, .int .i64 0, .int .i64 0, .string ⟨#[]⟩, .int .i64 0, .int .i64 0, .string ⟨#[]⟩, .int .i64 0, .int .i64 0, .int .i64 0, .slice none 0 0, .int .i64 0, .slice none 0 0] 34 (0, 0)) := by rw [hX, drew_heapM]; exact v45
    have hy3 : W2.heap[g]? = some (.cells RW.row 34 (0, 0)) := by rw [hX, drew_heapM, HROW.out]; exact u45
    have hb2 : Below w.heap.size w W2 := by rw [hX]; exact (((((((((((hbel.setCell (p := ⟨g, 35, none⟩) (by show _ ≤ g; omega) _).setCell (p := ⟨g, 36, none⟩) (by show _ ≤ g; omega) _).setCell (p := ⟨g, 37, none⟩) (by show _ ≤ g; omega) _).setCell (p := ⟨g, 38, none⟩) (by show _ ≤ g; omega) _).setCell (p := ⟨g, 39, none⟩) (by show _ ≤ g; omega) _).setCell (p := ⟨g, 40, none⟩) (by show _ ≤ g; omega) _).setCell (p := ⟨g, 41, none⟩) (by show _ ≤ g; omega) _).setCell (p := ⟨g, 42, none⟩) (by show _ ≤ g; omega) _).setCell (p := ⟨g, 46, none⟩) (by show _ ≤ g; omega) _).setCell (p := ⟨g, 47, none⟩) (by show _ ≤ g; omega) _).setCell (p := ⟨g, 45, none⟩) (by show _ ≤ g; omega) _).drew
    clear hX hx hr hy hy9 hbel u35 v35 u36 v36 u37 v37 u38 v38 u39 v39 u40 v40 u41 v41 u42 v42 u46 v46 u47 v47 u45 v45 f35 f36 f37 f38 f39 f40 f41 f42 f46 f47 f45 q0 z0 q1 z1 q2 z2 q3 z3 q4 z4 q5 z5 q6 z6 q7 z7 q8 z8 q9 z9 q10 z10 q11 z11 q12 z12 q13 z13 q14 z14 q15 z15 q16 z16 q17 z17
    have hrg := rangeAt_row5 hy3
    go_wp2_with (first | (refine wpList_load_mid rfl 34 (.tmp 3) rfl (g) 0 rfl RW.row.toList _ hrg Try.underlying34 rfl (msg_info _) ?_; rw [Array.toArray_toList]) | (refine wpList_storeRowTo (Z := RW.row) rfl (.tmp 2) (.tmp 70) 34 rfl (by rw [MsgV.row_size]; kernel_rfl) rfl (by rfl) hr2 (by rw [MsgV.row_size]; rfl) (MsgV.row_one _) ?_))
    have hZ := setRow_heap _ _ _ RW.row _ _ hr2
    have hrd := run_loadVar_mid (P := Try.prog) _ (w.heap.size + 1) 0 34 RW.row.toList _ (rangeAt_row5 hZ) Try.underlying34 rfl (msg_info _)
    rw [Array.toArray_toList] at hrd
    refine bodyPost_ret (v := .agg RW.row) ?_ rfl ?_
    · simp [results, Try.results25, asAddr]
      exact hrd
    exact ⟨rfl, below_setRow hb2 (by omega) _⟩
set_option maxRecDepth 100000 in
set_option maxHeartbeats 4000000 in
theorem refPlain_3 (hh : Int) (ht : Int) (rt : H32) (sp : ByteArray) (sc : Int) (dp : ByteArray) (dc : Int) (sq : Int) (da : ByteArray) (th : Int) (ta : Int) (ack : ByteArray) (nx : Int) (he : Int) (pct : Int) (pa : Option Addr) (pn : Nat) (pc : Nat) (pxs : List LeafV) (cct : Int) (ca : Option Addr) (cn : Nat) (cc : Nat) (cxs : List LeafV) (w : World) :
    Calls Try.prog 25 #[.agg (⟨3, hh, ht, rt, sp, sc, dp, dc, sq, da, th, ta, ack, nx, he, pct, pa, pn, pc, pxs, cct, ca, cn, cc, cxs⟩ : MsgV).row] w fun e w' => e = .returned (.agg (⟨3, hh, ht, rt, sp, sc, dp, dc, sq, da, th, ta, ack, nx, he, pct, pa, pn, pc, pxs, cct, ca, cn, cc, cxs⟩ : MsgV).plain.row) ∧ Below w.heap.size w w' := by
  obtain ⟨RW, hRW⟩ : ∃ q : MsgV, (⟨3, hh, ht, rt, sp, sc, dp, dc, sq, da, th, ta, ack, nx, he, pct, pa, pn, pc, pxs, cct, ca, cn, cc, cxs⟩ : MsgV).plain = q := ⟨_, rfl⟩
  have hrow : RW.row = ((MsgV.zero 3).front ++ [Value.string sp, Value.int .i64 sc, Value.string dp, Value.int .i64 dc, Value.int .i64 sq, Value.string da, Value.int .i64 th, Value.int .i64 ta, Value.string ack, Value.int .i64 0, Value.int .i64 he, Value.int .i64 pct, Value.slice pa pn pc, Value.int .i64 0, Value.slice none 0 0]).toArray := by rw [← hRW, MsgV.row_split]; rfl
  rw [hRW]
  have HPL := Lib.hid (rfl : RW.row = RW.row)
  have HROW := Lib.hid hrow
  have hF : (MsgV.zero 3).front.length = 35 := MsgV.front_len _
  clear hrow hRW
  have hx0 := al2_0 w (.cells (⟨3, hh, ht, rt, sp, sc, dp, dc, sq, da, th, ta, ack, nx, he, pct, pa, pn, pc, pxs, cct, ca, cn, cc, cxs⟩ : MsgV).row 34) (.cells #[.int .i64 0, .int .i64 0, .int .i64 0, Value.int .u8 0, Value.int .u8 0, Value.int .u8 0, Value.int .u8 0, Value.int .u8 0, Value.int .u8 0, Value.int .u8 0, Value.int .u8 0, Value.int .u8 0, Value.int .u8 0, Value.int .u8 0, Value.int .u8 0, Value.int .u8 0, Value.int .u8 0, Value.int .u8 0, Value.int .u8 0, Value.int .u8 0, Value.int .u8 0, Value.int .u8 0, Value.int .u8 0, Value.int .u8 0, Value.int .u8 0, Value.int .u8 0, Value.int .u8 0, Value.int .u8 0, Value.int .u8 0, Value.int .u8 0, Value.int .u8 0, Value.int .u8 0, Value.int .u8 0, Value.int .u8 0, Value.int .u8 0, .string ⟨#[]⟩, .int .i64 0, .string ⟨#[]⟩, .int .i64 0, .int .i64 0, .string ⟨#[]⟩, .int .i64 0, .int .i64 0, .string ⟨#[]⟩, .int .i64 0, .int .i64 0, .int .i64 0, .slice none 0 0, .int .i64 0, .slice none 0 0] 34)
  have hr0 := al2_1 w (.cells (⟨3, hh, ht, rt, sp, sc, dp, dc, sq, da, th, ta, ack, nx, he, pct, pa, pn, pc, pxs, cct, ca, cn, cc, cxs⟩ : MsgV).row 34) (.cells #[.int .i64 0, .int .i64 0, .int .i64 0, Value.int .u8 0, Value.int .u8 0, Value.int .u8 0, Value.int .u8 0, Value.int .u8 0, Value.int .u8 0, Value.int .u8 0, Value.int .u8 0, Value.int .u8 0, Value.int .u8 0, Value.int .u8 0, Value.int .u8 0, Value.int .u8 0, Value.int .u8 0, Value.int .u8 0, Value.int .u8 0, Value.int .u8 0, Value.int .u8 0, Value.int .u8 0, Value.int .u8 0, Value.int .u8 0, Value.int .u8 0, Value.int .u8 0, Value.int .u8 0, Value.int .u8 0, Value.int .u8 0, Value.int .u8 0, Value.int .u8 0, Value.int .u8 0, Value.int .u8 0, Value.int .u8 0, Value.int .u8 0, .string ⟨#[]⟩, .int .i64 0, .string ⟨#[]⟩, .int .i64 0, .int .i64 0, .string ⟨#[]⟩, .int .i64 0, .int .i64 0, .string ⟨#[]⟩, .int .i64 0, .int .i64 0, .int .i64 0, .slice none 0 0, .int .i64 0, .slice none 0 0] 34)
  have hbA := al2_below w (.cells (⟨3, hh, ht, rt, sp, sc, dp, dc, sq, da, th, ta, ack, nx, he, pct, pa, pn, pc, pxs, cct, ca, cn, cc, cxs⟩ : MsgV).row 34) (.cells #[.int .i64 0, .int .i64 0, .int .i64 0, Value.int .u8 0, Value.int .u8 0, Value.int .u8 0, Value.int .u8 0, Value.int .u8 0, Value.int .u8 0, Value.int .u8 0, Value.int .u8 0, Value.int .u8 0, Value.int .u8 0, Value.int .u8 0, Value.int .u8 0, Value.int .u8 0, Value.int .u8 0, Value.int .u8 0, Value.int .u8 0, Value.int .u8 0, Value.int .u8 0, Value.int .u8 0, Value.int .u8 0, Value.int .u8 0, Value.int .u8 0, Value.int .u8 0, Value.int .u8 0, Value.int .u8 0, Value.int .u8 0, Value.int .u8 0, Value.int .u8 0, Value.int .u8 0, Value.int .u8 0, Value.int .u8 0, Value.int .u8 0, .string ⟨#[]⟩, .int .i64 0, .string ⟨#[]⟩, .int .i64 0, .int .i64 0, .string ⟨#[]⟩, .int .i64 0, .int .i64 0, .string ⟨#[]⟩, .int .i64 0, .int .i64 0, .int .i64 0, .slice none 0 0, .int .i64 0, .slice none 0 0] 34)
  go_enter Try.func25, Try.ntmps25
  go_upto_region 1 with fail
  refine wp_nameE _ (fun W0 hX => ?_)
  have hx : W0.heap[w.heap.size]? = some (.cells (⟨3, hh, ht, rt, sp, sc, dp, dc, sq, da, th, ta, ack, nx, he, pct, pa, pn, pc, pxs, cct, ca, cn, cc, cxs⟩ : MsgV).row 34 (0, 0)) := by rw [hX]; exact hx0
  have hr : W0.heap[w.heap.size + 1]? = some (.cells #[.int .i64 0, .int .i64 0, .int .i64 0, Value.int .u8 0, Value.int .u8 0, Value.int .u8 0, Value.int .u8 0, Value.int .u8 0, Value.int .u8 0, Value.int .u8 0, Value.int .u8 0, Value.int .u8 0, Value.int .u8 0, Value.int .u8 0, Value.int .u8 0, Value.int .u8 0, Value.int .u8 0, Value.int .u8 0, Value.int .u8 0, Value.int .u8 0, Value.int .u8 0, Value.int .u8 0, Value.int .u8 0, Value.int .u8 0, Value.int .u8 0, Value.int .u8 0, Value.int .u8 0, Value.int .u8 0, Value.int .u8 0, Value.int .u8 0, Value.int .u8 0, Value.int .u8 0, Value.int .u8 0, Value.int .u8 0, Value.int .u8 0, .string ⟨#[]⟩, .int .i64 0, .string ⟨#[]⟩, .int .i64 0, .int .i64 0, .string ⟨#[]⟩, .int .i64 0, .int .i64 0, .string ⟨#[]⟩, .int .i64 0, .int .i64 0, .int .i64 0, .slice none 0 0, .int .i64 0, .slice none 0 0] 34 (0, 0)) := by rw [hX]; exact hr0
  have hbel : Below w.heap.size w W0 := by rw [hX]; exact hbA
  clear hX hx0 hr0 hbA
  have hrl : w.heap.size + 1 < W0.heap.size := (Array.getElem?_eq_some_iff.1 hr).1
  obtain ⟨q0, q1, q2, q3, q4, q5, q6, q7, q8, q9, q10, q11, q12, q13, q14, q15, q16, q17⟩ := msg_cells hx
  simp only at q0 q1 q2 q3 q4 q5 q6 q7 q8 q9 q10 q11 q12 q13 q14 q15 q16 q17
  go_step
  go_step
  go_step
  go_step
  go_step
  go_step
  go_step
  refine wpList_build1 rfl 34 0 (.tmp 5) rfl rfl (build_msg 3 _) ?_
  go_step
  go_step
  go_step
  refine wpList_storeRowTo (Z := (MsgV.zero 3).row) rfl (.tmp 3) (.tmp 6) 34 rfl (by rw [MsgV.row_size]; kernel_rfl) rfl (by rfl) (heap_push _ _ _) (by rw [MsgV.row_size]; rfl) (MsgV.row_one _) ?_
  go_step
  simp only [Act.put]
  go_upto_region 2 with fail
  refine wp_nameE _ (fun W1 hX => ?_)
  have hb01 : Below W0.heap.size W0 W1 := by rw [hX]; exact below_setRow (Below.alloc (Below.refl _ _) (Nat.le_refl _) _) (Nat.le_refl _) _
  have hy : W1.heap[W0.heap.size]? = some (.cells (MsgV.zero 3).row 34 (0, 0)) := by rw [hX]; exact setRow_heap _ _ _ _ _ _ (heap_push _ _ _)
  have hx := cells_of hx hb01 (by omega)
  have hr := cells_of hr hb01 hrl
  have hbel := hbel.trans (hb01.mono hbel.size)
  obtain ⟨g, hgg⟩ : ∃ g, W0.heap.size = g := ⟨_, rfl⟩
  rw [hgg] at hy hrl
  simp only [hgg]
  clear hX hb01 hgg q0 q1 q2 q3 q4 q5 q6 q7 q8 q9 q10 q11 q12 q13 q14 q15 q16 q17
  obtain ⟨q0, q1, q2, q3, q4, q5, q6, q7, q8, q9, q10, q11, q12, q13, q14, q15, q16, q17⟩ := msg_cells hx
  simp only at q0 q1 q2 q3 q4 q5 q6 q7 q8 q9 q10 q11 q12 q13 q14 q15 q16 q17
  have hy9 := hy
  obtain ⟨z0, z1, z2, z3, z4, z5, z6, z7, z8, z9, z10, z11, z12, z13, z14, z15, z16, z17⟩ := msg_cells hy9
  simp only [MsgV.zero] at z0 z1 z2 z3 z4 z5 z6 z7 z8 z9 z10 z11 z12 z13 z14 z15 z16 z17
  rw [MsgV.row_split] at hy
  go_upto_region 8 with fail
  have f35 := frozen_heap hy 35
  have f36 := frozen_heap hy 36
  have f37 := frozen_heap hy 37
  have f38 := frozen_heap hy 38
  have f39 := frozen_heap hy 39
  have f40 := frozen_heap hy 40
  have f41 := frozen_heap hy 41
  have f42 := frozen_heap hy 42
  have f43 := frozen_heap hy 43
  have f46 := frozen_heap hy 46
  have f47 := frozen_heap hy 47
  have f45 := frozen_heap hy 45
  go_region
  all_goals
    go_upto_region 13 with fail
    refine wp_nameE _ (fun W2 hX => ?_)
    have u35 := back_put hF hy 0 (.string sp)
    have v35 := row_oth (g := g) (k := 35) (v := .string sp) hr (by omega)
    have u36 := back_put hF u35 1 (.int .i64 sc)
    have v36 := row_oth (g := g) (k := 36) (v := .int .i64 sc) v35 (by omega)
    have u37 := back_put hF u36 2 (.string dp)
    have v37 := row_oth (g := g) (k := 37) (v := .string dp) v36 (by omega)
    have u38 := back_put hF u37 3 (.int .i64 dc)
    have v38 := row_oth (g := g) (k := 38) (v := .int .i64 dc) v37 (by omega)
    have u39 := back_put hF u38 4 (.int .i64 sq)
    have v39 := row_oth (g := g) (k := 39) (v := .int .i64 sq) v38 (by omega)
    have u40 := back_put hF u39 5 (.string da)
    have v40 := row_oth (g := g) (k := 40) (v := .string da) v39 (by omega)
    have u41 := back_put hF u40 6 (.int .i64 th)
    have v41 := row_oth (g := g) (k := 41) (v := .int .i64 th) v40 (by omega)
    have u42 := back_put hF u41 7 (.int .i64 ta)
    have v42 := row_oth (g := g) (k := 42) (v := .int .i64 ta) v41 (by omega)
    have u43 := back_put hF u42 8 (.string ack)
    have v43 := row_oth (g := g) (k := 43) (v := .string ack) v42 (by omega)
    have u46 := back_put hF u43 11 (.int .i64 pct)
    have v46 := row_oth (g := g) (k := 46) (v := .int .i64 pct) v43 (by omega)
    have u47 := back_put hF u46 12 (.slice pa pn pc)
    have v47 := row_oth (g := g) (k := 47) (v := .slice pa pn pc) v46 (by omega)
    have u45 := back_put hF u47 10 (.int .i64 he)
    have v45 := row_oth (g := g) (k := 45) (v := .int .i64 he) v47 (by omega)
    have hr2 : W2.heap[w.heap.size + 1]? = some (.cells #[.int .i64 0, .int .i64 0, .int .i64 0, Value.int .u8 0, Value.int .u8 0, Value.int .u8 0, Value.int .u8 0, Value.int .u8 0, Value.int .u8 0, Value.int .u8 0, Value.int .u8 0, Value.int .u8 0, Value.int .u8 0, Value.int .u8 0, Value.int .u8 0, Value.int .u8 0, Value.int .u8 0, Value.int .u8 0, Value.int .u8 0, Value.int .u8 0, Value.int .u8 0, Value.int .u8 0, Value.int .u8 0, Value.int .u8 0, Value.int .u8 0, Value.int .u8 0, Value.int .u8 0, Value.int .u8 0, Value.int .u8 0, Value.int .u8 0, Value.int .u8 0, Value.int .u8 0, Value.int .u8 0, Value.int .u8 0, Value.int .u8 0, .string ⟨#[]⟩, .int .i64 0, .string ⟨#[]⟩, .int .i64 0, .int .i64 0, .string ⟨#[]⟩, .int .i64 0, .int .i64 0, .string ⟨#[]⟩, .int .i64 0, .int .i64 0, .int .i64 0, .slice none 0 0, .int .i64 0, .slice none 0 0] 34 (0, 0)) := by rw [hX, drew_heapM]; exact v45
    have hy3 : W2.heap[g]? = some (.cells RW.row 34 (0, 0)) := by rw [hX, drew_heapM, HROW.out]; exact u45
    have hb2 : Below w.heap.size w W2 := by rw [hX]; exact ((((((((((((hbel.setCell (p := ⟨g, 35, none⟩) (by show _ ≤ g; omega) _).setCell (p := ⟨g, 36, none⟩) (by show _ ≤ g; omega) _).setCell (p := ⟨g, 37, none⟩) (by show _ ≤ g; omega) _).setCell (p := ⟨g, 38, none⟩) (by show _ ≤ g; omega) _).setCell (p := ⟨g, 39, none⟩) (by show _ ≤ g; omega) _).setCell (p := ⟨g, 40, none⟩) (by show _ ≤ g; omega) _).setCell (p := ⟨g, 41, none⟩) (by show _ ≤ g; omega) _).setCell (p := ⟨g, 42, none⟩) (by show _ ≤ g; omega) _).setCell (p := ⟨g, 43, none⟩) (by show _ ≤ g; omega) _).setCell (p := ⟨g, 46, none⟩) (by show _ ≤ g; omega) _).setCell (p := ⟨g, 47, none⟩) (by show _ ≤ g; omega) _).setCell (p := ⟨g, 45, none⟩) (by show _ ≤ g; omega) _).drew
    clear hX hx hr hy hy9 hbel u35 v35 u36 v36 u37 v37 u38 v38 u39 v39 u40 v40 u41 v41 u42 v42 u43 v43 u46 v46 u47 v47 u45 v45 f35 f36 f37 f38 f39 f40 f41 f42 f43 f46 f47 f45 q0 z0 q1 z1 q2 z2 q3 z3 q4 z4 q5 z5 q6 z6 q7 z7 q8 z8 q9 z9 q10 z10 q11 z11 q12 z12 q13 z13 q14 z14 q15 z15 q16 z16 q17 z17
    have hrg := rangeAt_row5 hy3
    go_wp2_with (first | (refine wpList_load_mid rfl 34 (.tmp 3) rfl (g) 0 rfl RW.row.toList _ hrg Try.underlying34 rfl (msg_info _) ?_; rw [Array.toArray_toList]) | (refine wpList_storeRowTo (Z := RW.row) rfl (.tmp 2) (.tmp 70) 34 rfl (by rw [MsgV.row_size]; kernel_rfl) rfl (by rfl) hr2 (by rw [MsgV.row_size]; rfl) (MsgV.row_one _) ?_))
    have hZ := setRow_heap _ _ _ RW.row _ _ hr2
    have hrd := run_loadVar_mid (P := Try.prog) _ (w.heap.size + 1) 0 34 RW.row.toList _ (rangeAt_row5 hZ) Try.underlying34 rfl (msg_info _)
    rw [Array.toArray_toList] at hrd
    refine bodyPost_ret (v := .agg RW.row) ?_ rfl ?_
    · simp [results, Try.results25, asAddr]
      exact hrd
    exact ⟨rfl, below_setRow hb2 (by omega) _⟩
set_option maxRecDepth 100000 in
set_option maxHeartbeats 4000000 in
theorem refPlain_4 (hh : Int) (ht : Int) (rt : H32) (sp : ByteArray) (sc : Int) (dp : ByteArray) (dc : Int) (sq : Int) (da : ByteArray) (th : Int) (ta : Int) (ack : ByteArray) (nx : Int) (he : Int) (pct : Int) (pa : Option Addr) (pn : Nat) (pc : Nat) (pxs : List LeafV) (cct : Int) (ca : Option Addr) (cn : Nat) (cc : Nat) (cxs : List LeafV) (w : World) :
    Calls Try.prog 25 #[.agg (⟨4, hh, ht, rt, sp, sc, dp, dc, sq, da, th, ta, ack, nx, he, pct, pa, pn, pc, pxs, cct, ca, cn, cc, cxs⟩ : MsgV).row] w fun e w' => e = .returned (.agg (⟨4, hh, ht, rt, sp, sc, dp, dc, sq, da, th, ta, ack, nx, he, pct, pa, pn, pc, pxs, cct, ca, cn, cc, cxs⟩ : MsgV).plain.row) ∧ Below w.heap.size w w' := by
  obtain ⟨RW, hRW⟩ : ∃ q : MsgV, (⟨4, hh, ht, rt, sp, sc, dp, dc, sq, da, th, ta, ack, nx, he, pct, pa, pn, pc, pxs, cct, ca, cn, cc, cxs⟩ : MsgV).plain = q := ⟨_, rfl⟩
  have hrow : RW.row = ((MsgV.zero 4).front ++ [Value.string sp, Value.int .i64 sc, Value.string dp, Value.int .i64 dc, Value.int .i64 sq, Value.string da, Value.int .i64 th, Value.int .i64 ta, Value.string ⟨#[]⟩, Value.int .i64 nx, Value.int .i64 he, Value.int .i64 pct, Value.slice pa pn pc, Value.int .i64 0, Value.slice none 0 0]).toArray := by rw [← hRW, MsgV.row_split]; rfl
  rw [hRW]
  have HPL := Lib.hid (rfl : RW.row = RW.row)
  have HROW := Lib.hid hrow
  have hF : (MsgV.zero 4).front.length = 35 := MsgV.front_len _
  clear hrow hRW
  have hx0 := al2_0 w (.cells (⟨4, hh, ht, rt, sp, sc, dp, dc, sq, da, th, ta, ack, nx, he, pct, pa, pn, pc, pxs, cct, ca, cn, cc, cxs⟩ : MsgV).row 34) (.cells #[.int .i64 0, .int .i64 0, .int .i64 0, Value.int .u8 0, Value.int .u8 0, Value.int .u8 0, Value.int .u8 0, Value.int .u8 0, Value.int .u8 0, Value.int .u8 0, Value.int .u8 0, Value.int .u8 0, Value.int .u8 0, Value.int .u8 0, Value.int .u8 0, Value.int .u8 0, Value.int .u8 0, Value.int .u8 0, Value.int .u8 0, Value.int .u8 0, Value.int .u8 0, Value.int .u8 0, Value.int .u8 0, Value.int .u8 0, Value.int .u8 0, Value.int .u8 0, Value.int .u8 0, Value.int .u8 0, Value.int .u8 0, Value.int .u8 0, Value.int .u8 0, Value.int .u8 0, Value.int .u8 0, Value.int .u8 0, Value.int .u8 0, .string ⟨#[]⟩, .int .i64 0, .string ⟨#[]⟩, .int .i64 0, .int .i64 0, .string ⟨#[]⟩, .int .i64 0, .int .i64 0, .string ⟨#[]⟩, .int .i64 0, .int .i64 0, .int .i64 0, .slice none 0 0, .int .i64 0, .slice none 0 0] 34)
  have hr0 := al2_1 w (.cells (⟨4, hh, ht, rt, sp, sc, dp, dc, sq, da, th, ta, ack, nx, he, pct, pa, pn, pc, pxs, cct, ca, cn, cc, cxs⟩ : MsgV).row 34) (.cells #[.int .i64 0, .int .i64 0, .int .i64 0, Value.int .u8 0, Value.int .u8 0, Value.int .u8 0, Value.int .u8 0, Value.int .u8 0, Value.int .u8 0, Value.int .u8 0, Value.int .u8 0, Value.int .u8 0, Value.int .u8 0, Value.int .u8 0, Value.int .u8 0, Value.int .u8 0, Value.int .u8 0, Value.int .u8 0, Value.int .u8 0, Value.int .u8 0, Value.int .u8 0, Value.int .u8 0, Value.int .u8 0, Value.int .u8 0, Value.int .u8 0, Value.int .u8 0, Value.int .u8 0, Value.int .u8 0, Value.int .u8 0, Value.int .u8 0, Value.int .u8 0, Value.int .u8 0, Value.int .u8 0, Value.int .u8 0, Value.int .u8 0, .string ⟨#[]⟩, .int .i64 0, .string ⟨#[]⟩, .int .i64 0, .int .i64 0, .string ⟨#[]⟩, .int .i64 0, .int .i64 0, .string ⟨#[]⟩, .int .i64 0, .int .i64 0, .int .i64 0, .slice none 0 0, .int .i64 0, .slice none 0 0] 34)
  have hbA := al2_below w (.cells (⟨4, hh, ht, rt, sp, sc, dp, dc, sq, da, th, ta, ack, nx, he, pct, pa, pn, pc, pxs, cct, ca, cn, cc, cxs⟩ : MsgV).row 34) (.cells #[.int .i64 0, .int .i64 0, .int .i64 0, Value.int .u8 0, Value.int .u8 0, Value.int .u8 0, Value.int .u8 0, Value.int .u8 0, Value.int .u8 0, Value.int .u8 0, Value.int .u8 0, Value.int .u8 0, Value.int .u8 0, Value.int .u8 0, Value.int .u8 0, Value.int .u8 0, Value.int .u8 0, Value.int .u8 0, Value.int .u8 0, Value.int .u8 0, Value.int .u8 0, Value.int .u8 0, Value.int .u8 0, Value.int .u8 0, Value.int .u8 0, Value.int .u8 0, Value.int .u8 0, Value.int .u8 0, Value.int .u8 0, Value.int .u8 0, Value.int .u8 0, Value.int .u8 0, Value.int .u8 0, Value.int .u8 0, Value.int .u8 0, .string ⟨#[]⟩, .int .i64 0, .string ⟨#[]⟩, .int .i64 0, .int .i64 0, .string ⟨#[]⟩, .int .i64 0, .int .i64 0, .string ⟨#[]⟩, .int .i64 0, .int .i64 0, .int .i64 0, .slice none 0 0, .int .i64 0, .slice none 0 0] 34)
  go_enter Try.func25, Try.ntmps25
  go_upto_region 1 with fail
  refine wp_nameE _ (fun W0 hX => ?_)
  have hx : W0.heap[w.heap.size]? = some (.cells (⟨4, hh, ht, rt, sp, sc, dp, dc, sq, da, th, ta, ack, nx, he, pct, pa, pn, pc, pxs, cct, ca, cn, cc, cxs⟩ : MsgV).row 34 (0, 0)) := by rw [hX]; exact hx0
  have hr : W0.heap[w.heap.size + 1]? = some (.cells #[.int .i64 0, .int .i64 0, .int .i64 0, Value.int .u8 0, Value.int .u8 0, Value.int .u8 0, Value.int .u8 0, Value.int .u8 0, Value.int .u8 0, Value.int .u8 0, Value.int .u8 0, Value.int .u8 0, Value.int .u8 0, Value.int .u8 0, Value.int .u8 0, Value.int .u8 0, Value.int .u8 0, Value.int .u8 0, Value.int .u8 0, Value.int .u8 0, Value.int .u8 0, Value.int .u8 0, Value.int .u8 0, Value.int .u8 0, Value.int .u8 0, Value.int .u8 0, Value.int .u8 0, Value.int .u8 0, Value.int .u8 0, Value.int .u8 0, Value.int .u8 0, Value.int .u8 0, Value.int .u8 0, Value.int .u8 0, Value.int .u8 0, .string ⟨#[]⟩, .int .i64 0, .string ⟨#[]⟩, .int .i64 0, .int .i64 0, .string ⟨#[]⟩, .int .i64 0, .int .i64 0, .string ⟨#[]⟩, .int .i64 0, .int .i64 0, .int .i64 0, .slice none 0 0, .int .i64 0, .slice none 0 0] 34 (0, 0)) := by rw [hX]; exact hr0
  have hbel : Below w.heap.size w W0 := by rw [hX]; exact hbA
  clear hX hx0 hr0 hbA
  have hrl : w.heap.size + 1 < W0.heap.size := (Array.getElem?_eq_some_iff.1 hr).1
  obtain ⟨q0, q1, q2, q3, q4, q5, q6, q7, q8, q9, q10, q11, q12, q13, q14, q15, q16, q17⟩ := msg_cells hx
  simp only at q0 q1 q2 q3 q4 q5 q6 q7 q8 q9 q10 q11 q12 q13 q14 q15 q16 q17
  go_step
  go_step
  go_step
  go_step
  go_step
  go_step
  go_step
  refine wpList_build1 rfl 34 0 (.tmp 5) rfl rfl (build_msg 4 _) ?_
  go_step
  go_step
  go_step
  refine wpList_storeRowTo (Z := (MsgV.zero 4).row) rfl (.tmp 3) (.tmp 6) 34 rfl (by rw [MsgV.row_size]; kernel_rfl) rfl (by rfl) (heap_push _ _ _) (by rw [MsgV.row_size]; rfl) (MsgV.row_one _) ?_
  go_step
  simp only [Act.put]
  go_upto_region 2 with fail
  refine wp_nameE _ (fun W1 hX => ?_)
  have hb01 : Below W0.heap.size W0 W1 := by rw [hX]; exact below_setRow (Below.alloc (Below.refl _ _) (Nat.le_refl _) _) (Nat.le_refl _) _
  have hy : W1.heap[W0.heap.size]? = some (.cells (MsgV.zero 4).row 34 (0, 0)) := by rw [hX]; exact setRow_heap _ _ _ _ _ _ (heap_push _ _ _)
  have hx := cells_of hx hb01 (by omega)
  have hr := cells_of hr hb01 hrl
  have hbel := hbel.trans (hb01.mono hbel.size)
  obtain ⟨g, hgg⟩ : ∃ g, W0.heap.size = g := ⟨_, rfl⟩
  rw [hgg] at hy hrl
  simp only [hgg]
  clear hX hb01 hgg q0 q1 q2 q3 q4 q5 q6 q7 q8 q9 q10 q11 q12 q13 q14 q15 q16 q17
  obtain ⟨q0, q1, q2, q3, q4, q5, q6, q7, q8, q9, q10, q11, q12, q13, q14, q15, q16, q17⟩ := msg_cells hx
  simp only at q0 q1 q2 q3 q4 q5 q6 q7 q8 q9 q10 q11 q12 q13 q14 q15 q16 q17
  have hy9 := hy
  obtain ⟨z0, z1, z2, z3, z4, z5, z6, z7, z8, z9, z10, z11, z12, z13, z14, z15, z16, z17⟩ := msg_cells hy9
  simp only [MsgV.zero] at z0 z1 z2 z3 z4 z5 z6 z7 z8 z9 z10 z11 z12 z13 z14 z15 z16 z17
  rw [MsgV.row_split] at hy
  go_upto_region 10 with fail
  have f35 := frozen_heap hy 35
  have f36 := frozen_heap hy 36
  have f37 := frozen_heap hy 37
  have f38 := frozen_heap hy 38
  have f39 := frozen_heap hy 39
  have f40 := frozen_heap hy 40
  have f41 := frozen_heap hy 41
  have f42 := frozen_heap hy 42
  have f44 := frozen_heap hy 44
  have f46 := frozen_heap hy 46
  have f47 := frozen_heap hy 47
  have f45 := frozen_heap hy 45
  go_region
  all_goals
    go_upto_region 13 with fail
    refine wp_nameE _ (fun W2 hX => ?_)
    have u35 := back_put hF hy 0 (.string sp)
    have v35 := row_oth (g := g) (k := 35) (v := .string sp) hr (by omega)
    have u36 := back_put hF u35 1 (.int .i64 sc)
    have v36 := row_oth (g := g) (k := 36) (v := .int .i64 sc) v35 (by omega)
    have u37 := back_put hF u36 2 (.string dp)
    have v37 := row_oth (g := g) (k := 37) (v := .string dp) v36 (by omega)
    have u38 := back_put hF u37 3 (.int .i64 dc)
    have v38 := row_oth (g := g) (k := 38) (v := .int .i64 dc) v37 (by omega)
    have u39 := back_put hF u38 4 (.int .i64 sq)
    have v39 := row_oth (g := g) (k := 39) (v := .int .i64 sq) v38 (by omega)
    have u40 := back_put hF u39 5 (.string da)
    have v40 := row_oth (g := g) (k := 40) (v := .string da) v39 (by omega)
    have u41 := back_put hF u40 6 (.int .i64 th)
    have v41 := row_oth (g := g) (k := 41) (v := .int .i64 th) v40 (by omega)
    have u42 := back_put hF u41 7 (.int .i64 ta)
    have v42 := row_oth (g := g) (k := 42) (v := .int .i64 ta) v41 (by omega)
    have u44 := back_put hF u42 9 (.int .i64 nx)
    have v44 := row_oth (g := g) (k := 44) (v := .int .i64 nx) v42 (by omega)
    have u46 := back_put hF u44 11 (.int .i64 pct)
    have v46 := row_oth (g := g) (k := 46) (v := .int .i64 pct) v44 (by omega)
    have u47 := back_put hF u46 12 (.slice pa pn pc)
    have v47 := row_oth (g := g) (k := 47) (v := .slice pa pn pc) v46 (by omega)
    have u45 := back_put hF u47 10 (.int .i64 he)
    have v45 := row_oth (g := g) (k := 45) (v := .int .i64 he) v47 (by omega)
    have hr2 : W2.heap[w.heap.size + 1]? = some (.cells #[.int .i64 0, .int .i64 0, .int .i64 0, Value.int .u8 0, Value.int .u8 0, Value.int .u8 0, Value.int .u8 0, Value.int .u8 0, Value.int .u8 0, Value.int .u8 0, Value.int .u8 0, Value.int .u8 0, Value.int .u8 0, Value.int .u8 0, Value.int .u8 0, Value.int .u8 0, Value.int .u8 0, Value.int .u8 0, Value.int .u8 0, Value.int .u8 0, Value.int .u8 0, Value.int .u8 0, Value.int .u8 0, Value.int .u8 0, Value.int .u8 0, Value.int .u8 0, Value.int .u8 0, Value.int .u8 0, Value.int .u8 0, Value.int .u8 0, Value.int .u8 0, Value.int .u8 0, Value.int .u8 0, Value.int .u8 0, Value.int .u8 0, .string ⟨#[]⟩, .int .i64 0, .string ⟨#[]⟩, .int .i64 0, .int .i64 0, .string ⟨#[]⟩, .int .i64 0, .int .i64 0, .string ⟨#[]⟩, .int .i64 0, .int .i64 0, .int .i64 0, .slice none 0 0, .int .i64 0, .slice none 0 0] 34 (0, 0)) := by rw [hX, drew_heapM]; exact v45
    have hy3 : W2.heap[g]? = some (.cells RW.row 34 (0, 0)) := by rw [hX, drew_heapM, HROW.out]; exact u45
    have hb2 : Below w.heap.size w W2 := by rw [hX]; exact ((((((((((((hbel.setCell (p := ⟨g, 35, none⟩) (by show _ ≤ g; omega) _).setCell (p := ⟨g, 36, none⟩) (by show _ ≤ g; omega) _).setCell (p := ⟨g, 37, none⟩) (by show _ ≤ g; omega) _).setCell (p := ⟨g, 38, none⟩) (by show _ ≤ g; omega) _).setCell (p := ⟨g, 39, none⟩) (by show _ ≤ g; omega) _).setCell (p := ⟨g, 40, none⟩) (by show _ ≤ g; omega) _).setCell (p := ⟨g, 41, none⟩) (by show _ ≤ g; omega) _).setCell (p := ⟨g, 42, none⟩) (by show _ ≤ g; omega) _).setCell (p := ⟨g, 44, none⟩) (by show _ ≤ g; omega) _).setCell (p := ⟨g, 46, none⟩) (by show _ ≤ g; omega) _).setCell (p := ⟨g, 47, none⟩) (by show _ ≤ g; omega) _).setCell (p := ⟨g, 45, none⟩) (by show _ ≤ g; omega) _).drew
    clear hX hx hr hy hy9 hbel u35 v35 u36 v36 u37 v37 u38 v38 u39 v39 u40 v40 u41 v41 u42 v42 u44 v44 u46 v46 u47 v47 u45 v45 f35 f36 f37 f38 f39 f40 f41 f42 f44 f46 f47 f45 q0 z0 q1 z1 q2 z2 q3 z3 q4 z4 q5 z5 q6 z6 q7 z7 q8 z8 q9 z9 q10 z10 q11 z11 q12 z12 q13 z13 q14 z14 q15 z15 q16 z16 q17 z17
    have hrg := rangeAt_row5 hy3
    go_wp2_with (first | (refine wpList_load_mid rfl 34 (.tmp 3) rfl (g) 0 rfl RW.row.toList _ hrg Try.underlying34 rfl (msg_info _) ?_; rw [Array.toArray_toList]) | (refine wpList_storeRowTo (Z := RW.row) rfl (.tmp 2) (.tmp 70) 34 rfl (by rw [MsgV.row_size]; kernel_rfl) rfl (by rfl) hr2 (by rw [MsgV.row_size]; rfl) (MsgV.row_one _) ?_))
    have hZ := setRow_heap _ _ _ RW.row _ _ hr2
    have hrd := run_loadVar_mid (P := Try.prog) _ (w.heap.size + 1) 0 34 RW.row.toList _ (rangeAt_row5 hZ) Try.underlying34 rfl (msg_info _)
    rw [Array.toArray_toList] at hrd
    refine bodyPost_ret (v := .agg RW.row) ?_ rfl ?_
    · simp [results, Try.results25, asAddr]
      exact hrd
    exact ⟨rfl, below_setRow hb2 (by omega) _⟩
set_option maxRecDepth 100000 in
set_option maxHeartbeats 4000000 in
theorem refPlain_5 (hh : Int) (ht : Int) (rt : H32) (sp : ByteArray) (sc : Int) (dp : ByteArray) (dc : Int) (sq : Int) (da : ByteArray) (th : Int) (ta : Int) (ack : ByteArray) (nx : Int) (he : Int) (pct : Int) (pa : Option Addr) (pn : Nat) (pc : Nat) (pxs : List LeafV) (cct : Int) (ca : Option Addr) (cn : Nat) (cc : Nat) (cxs : List LeafV) (w : World) :
    Calls Try.prog 25 #[.agg (⟨5, hh, ht, rt, sp, sc, dp, dc, sq, da, th, ta, ack, nx, he, pct, pa, pn, pc, pxs, cct, ca, cn, cc, cxs⟩ : MsgV).row] w fun e w' => e = .returned (.agg (⟨5, hh, ht, rt, sp, sc, dp, dc, sq, da, th, ta, ack, nx, he, pct, pa, pn, pc, pxs, cct, ca, cn, cc, cxs⟩ : MsgV).plain.row) ∧ Below w.heap.size w w' := by
  obtain ⟨RW, hRW⟩ : ∃ q : MsgV, (⟨5, hh, ht, rt, sp, sc, dp, dc, sq, da, th, ta, ack, nx, he, pct, pa, pn, pc, pxs, cct, ca, cn, cc, cxs⟩ : MsgV).plain = q := ⟨_, rfl⟩
  have hrow : RW.row = ((MsgV.zero 5).front ++ [Value.string sp, Value.int .i64 sc, Value.string dp, Value.int .i64 dc, Value.int .i64 sq, Value.string da, Value.int .i64 th, Value.int .i64 ta, Value.string ⟨#[]⟩, Value.int .i64 nx, Value.int .i64 he, Value.int .i64 pct, Value.slice pa pn pc, Value.int .i64 cct, Value.slice ca cn cc]).toArray := by rw [← hRW, MsgV.row_split]; rfl
  rw [hRW]
  have HPL := Lib.hid (rfl : RW.row = RW.row)
  have HROW := Lib.hid hrow
  have hF : (MsgV.zero 5).front.length = 35 := MsgV.front_len _
  clear hrow hRW
  have hx0 := al2_0 w (.cells (⟨5, hh, ht, rt, sp, sc, dp, dc, sq, da, th, ta, ack, nx, he, pct, pa, pn, pc, pxs, cct, ca, cn, cc, cxs⟩ : MsgV).row 34) (.cells #[.int .i64 0, .int .i64 0, .int .i64 0, Value.int .u8 0, Value.int .u8 0, Value.int .u8 0, Value.int .u8 0, Value.int .u8 0, Value.int .u8 0, Value.int .u8 0, Value.int .u8 0, Value.int .u8 0, Value.int .u8 0, Value.int .u8 0, Value.int .u8 0, Value.int .u8 0, Value.int .u8 0, Value.int .u8 0, Value.int .u8 0, Value.int .u8 0, Value.int .u8 0, Value.int .u8 0, Value.int .u8 0, Value.int .u8 0, Value.int .u8 0, Value.int .u8 0, Value.int .u8 0, Value.int .u8 0, Value.int .u8 0, Value.int .u8 0, Value.int .u8 0, Value.int .u8 0, Value.int .u8 0, Value.int .u8 0, Value.int .u8 0, .string ⟨#[]⟩, .int .i64 0, .string ⟨#[]⟩, .int .i64 0, .int .i64 0, .string ⟨#[]⟩, .int .i64 0, .int .i64 0, .string ⟨#[]⟩, .int .i64 0, .int .i64 0, .int .i64 0, .slice none 0 0, .int .i64 0, .slice none 0 0] 34)
  have hr0 := al2_1 w (.cells (⟨5, hh, ht, rt, sp, sc, dp, dc, sq, da, th, ta, ack, nx, he, pct, pa, pn, pc, pxs, cct, ca, cn, cc, cxs⟩ : MsgV).row 34) (.cells #[.int .i64 0, .int .i64 0, .int .i64 0, Value.int .u8 0, Value.int .u8 0, Value.int .u8 0, Value.int .u8 0, Value.int .u8 0, Value.int .u8 0, Value.int .u8 0, Value.int .u8 0, Value.int .u8 0, Value.int .u8 0, Value.int .u8 0, Value.int .u8 0, Value.int .u8 0, Value.int .u8 0, Value.int .u8 0, Value.int .u8 0, Value.int .u8 0, Value.int .u8 0, Value.int .u8 0, Value.int .u8 0, Value.int .u8 0, Value.int .u8 0, Value.int .u8 0, Value.int .u8 0, Value.int .u8 0, Value.int .u8 0, Value.int .u8 0, Value.int .u8 0, Value.int .u8 0, Value.int .u8 0, Value.int .u8 0, Value.int .u8 0, .string ⟨#[]⟩, .int .i64 0, .string ⟨#[]⟩, .int .i64 0, .int .i64 0, .string ⟨#[]⟩, .int .i64 0, .int .i64 0, .string ⟨#[]⟩, .int .i64 0, .int .i64 0, .int .i64 0, .slice none 0 0, .int .i64 0, .slice none 0 0] 34)
  have hbA := al2_below w (.cells (⟨5, hh, ht, rt, sp, sc, dp, dc, sq, da, th, ta, ack, nx, he, pct, pa, pn, pc, pxs, cct, ca, cn, cc, cxs⟩ : MsgV).row 34) (.cells #[.int .i64 0, .int .i64 0, .int .i64 0, Value.int .u8 0, Value.int .u8 0, Value.int .u8 0, Value.int .u8 0, Value.int .u8 0, Value.int .u8 0, Value.int .u8 0, Value.int .u8 0, Value.int .u8 0, Value.int .u8 0, Value.int .u8 0, Value.int .u8 0, Value.int .u8 0, Value.int .u8 0, Value.int .u8 0, Value.int .u8 0, Value.int .u8 0, Value.int .u8 0, Value.int .u8 0, Value.int .u8 0, Value.int .u8 0, Value.int .u8 0, Value.int .u8 0, Value.int .u8 0, Value.int .u8 0, Value.int .u8 0, Value.int .u8 0, Value.int .u8 0, Value.int .u8 0, Value.int .u8 0, Value.int .u8 0, Value.int .u8 0, .string ⟨#[]⟩, .int .i64 0, .string ⟨#[]⟩, .int .i64 0, .int .i64 0, .string ⟨#[]⟩, .int .i64 0, .int .i64 0, .string ⟨#[]⟩, .int .i64 0, .int .i64 0, .int .i64 0, .slice none 0 0, .int .i64 0, .slice none 0 0] 34)
  go_enter Try.func25, Try.ntmps25
  go_upto_region 1 with fail
  refine wp_nameE _ (fun W0 hX => ?_)
  have hx : W0.heap[w.heap.size]? = some (.cells (⟨5, hh, ht, rt, sp, sc, dp, dc, sq, da, th, ta, ack, nx, he, pct, pa, pn, pc, pxs, cct, ca, cn, cc, cxs⟩ : MsgV).row 34 (0, 0)) := by rw [hX]; exact hx0
  have hr : W0.heap[w.heap.size + 1]? = some (.cells #[.int .i64 0, .int .i64 0, .int .i64 0, Value.int .u8 0, Value.int .u8 0, Value.int .u8 0, Value.int .u8 0, Value.int .u8 0, Value.int .u8 0, Value.int .u8 0, Value.int .u8 0, Value.int .u8 0, Value.int .u8 0, Value.int .u8 0, Value.int .u8 0, Value.int .u8 0, Value.int .u8 0, Value.int .u8 0, Value.int .u8 0, Value.int .u8 0, Value.int .u8 0, Value.int .u8 0, Value.int .u8 0, Value.int .u8 0, Value.int .u8 0, Value.int .u8 0, Value.int .u8 0, Value.int .u8 0, Value.int .u8 0, Value.int .u8 0, Value.int .u8 0, Value.int .u8 0, Value.int .u8 0, Value.int .u8 0, Value.int .u8 0, .string ⟨#[]⟩, .int .i64 0, .string ⟨#[]⟩, .int .i64 0, .int .i64 0, .string ⟨#[]⟩, .int .i64 0, .int .i64 0, .string ⟨#[]⟩, .int .i64 0, .int .i64 0, .int .i64 0, .slice none 0 0, .int .i64 0, .slice none 0 0] 34 (0, 0)) := by rw [hX]; exact hr0
  have hbel : Below w.heap.size w W0 := by rw [hX]; exact hbA
  clear hX hx0 hr0 hbA
  have hrl : w.heap.size + 1 < W0.heap.size := (Array.getElem?_eq_some_iff.1 hr).1
  obtain ⟨q0, q1, q2, q3, q4, q5, q6, q7, q8, q9, q10, q11, q12, q13, q14, q15, q16, q17⟩ := msg_cells hx
  simp only at q0 q1 q2 q3 q4 q5 q6 q7 q8 q9 q10 q11 q12 q13 q14 q15 q16 q17
  go_step
  go_step
  go_step
  go_step
  go_step
  go_step
  go_step
  refine wpList_build1 rfl 34 0 (.tmp 5) rfl rfl (build_msg 5 _) ?_
  go_step
  go_step
  go_step
  refine wpList_storeRowTo (Z := (MsgV.zero 5).row) rfl (.tmp 3) (.tmp 6) 34 rfl (by rw [MsgV.row_size]; kernel_rfl) rfl (by rfl) (heap_push _ _ _) (by rw [MsgV.row_size]; rfl) (MsgV.row_one _) ?_
  go_step
  simp only [Act.put]
  go_upto_region 2 with fail
  refine wp_nameE _ (fun W1 hX => ?_)
  have hb01 : Below W0.heap.size W0 W1 := by rw [hX]; exact below_setRow (Below.alloc (Below.refl _ _) (Nat.le_refl _) _) (Nat.le_refl _) _
  have hy : W1.heap[W0.heap.size]? = some (.cells (MsgV.zero 5).row 34 (0, 0)) := by rw [hX]; exact setRow_heap _ _ _ _ _ _ (heap_push _ _ _)
  have hx := cells_of hx hb01 (by omega)
  have hr := cells_of hr hb01 hrl
  have hbel := hbel.trans (hb01.mono hbel.size)
  obtain ⟨g, hgg⟩ : ∃ g, W0.heap.size = g := ⟨_, rfl⟩
  rw [hgg] at hy hrl
  simp only [hgg]
  clear hX hb01 hgg q0 q1 q2 q3 q4 q5 q6 q7 q8 q9 q10 q11 q12 q13 q14 q15 q16 q17
  obtain ⟨q0, q1, q2, q3, q4, q5, q6, q7, q8, q9, q10, q11, q12, q13, q14, q15, q16, q17⟩ := msg_cells hx
  simp only at q0 q1 q2 q3 q4 q5 q6 q7 q8 q9 q10 q11 q12 q13 q14 q15 q16 q17
  have hy9 := hy
  obtain ⟨z0, z1, z2, z3, z4, z5, z6, z7, z8, z9, z10, z11, z12, z13, z14, z15, z16, z17⟩ := msg_cells hy9
  simp only [MsgV.zero] at z0 z1 z2 z3 z4 z5 z6 z7 z8 z9 z10 z11 z12 z13 z14 z15 z16 z17
  rw [MsgV.row_split] at hy
  go_upto_region 12 with fail
  have f35 := frozen_heap hy 35
  have f36 := frozen_heap hy 36
  have f37 := frozen_heap hy 37
  have f38 := frozen_heap hy 38
  have f39 := frozen_heap hy 39
  have f40 := frozen_heap hy 40
  have f41 := frozen_heap hy 41
  have f42 := frozen_heap hy 42
  have f44 := frozen_heap hy 44
  have f46 := frozen_heap hy 46
  have f47 := frozen_heap hy 47
  have f48 := frozen_heap hy 48
  have f49 := frozen_heap hy 49
  have f45 := frozen_heap hy 45
  go_region
  all_goals
    go_upto_region 13 with fail
    refine wp_nameE _ (fun W2 hX => ?_)
    have u35 := back_put hF hy 0 (.string sp)
    have v35 := row_oth (g := g) (k := 35) (v := .string sp) hr (by omega)
    have u36 := back_put hF u35 1 (.int .i64 sc)
    have v36 := row_oth (g := g) (k := 36) (v := .int .i64 sc) v35 (by omega)
    have u37 := back_put hF u36 2 (.string dp)
    have v37 := row_oth (g := g) (k := 37) (v := .string dp) v36 (by omega)
    have u38 := back_put hF u37 3 (.int .i64 dc)
    have v38 := row_oth (g := g) (k := 38) (v := .int .i64 dc) v37 (by omega)
    have u39 := back_put hF u38 4 (.int .i64 sq)
    have v39 := row_oth (g := g) (k := 39) (v := .int .i64 sq) v38 (by omega)
    have u40 := back_put hF u39 5 (.string da)
    have v40 := row_oth (g := g) (k := 40) (v := .string da) v39 (by omega)
    have u41 := back_put hF u40 6 (.int .i64 th)
    have v41 := row_oth (g := g) (k := 41) (v := .int .i64 th) v40 (by omega)
    have u42 := back_put hF u41 7 (.int .i64 ta)
    have v42 := row_oth (g := g) (k := 42) (v := .int .i64 ta) v41 (by omega)
    have u44 := back_put hF u42 9 (.int .i64 nx)
    have v44 := row_oth (g := g) (k := 44) (v := .int .i64 nx) v42 (by omega)
    have u46 := back_put hF u44 11 (.int .i64 pct)
    have v46 := row_oth (g := g) (k := 46) (v := .int .i64 pct) v44 (by omega)
    have u47 := back_put hF u46 12 (.slice pa pn pc)
    have v47 := row_oth (g := g) (k := 47) (v := .slice pa pn pc) v46 (by omega)
    have u48 := back_put hF u47 13 (.int .i64 cct)
    have v48 := row_oth (g := g) (k := 48) (v := .int .i64 cct) v47 (by omega)
    have u49 := back_put hF u48 14 (.slice ca cn cc)
    have v49 := row_oth (g := g) (k := 49) (v := .slice ca cn cc) v48 (by omega)
    have u45 := back_put hF u49 10 (.int .i64 he)
    have v45 := row_oth (g := g) (k := 45) (v := .int .i64 he) v49 (by omega)
    have hr2 : W2.heap[w.heap.size + 1]? = some (.cells #[.int .i64 0, .int .i64 0, .int .i64 0, Value.int .u8 0, Value.int .u8 0, Value.int .u8 0, Value.int .u8 0, Value.int .u8 0, Value.int .u8 0, Value.int .u8 0, Value.int .u8 0, Value.int .u8 0, Value.int .u8 0, Value.int .u8 0, Value.int .u8 0, Value.int .u8 0, Value.int .u8 0, Value.int .u8 0, Value.int .u8 0, Value.int .u8 0, Value.int .u8 0, Value.int .u8 0, Value.int .u8 0, Value.int .u8 0, Value.int .u8 0, Value.int .u8 0, Value.int .u8 0, Value.int .u8 0, Value.int .u8 0, Value.int .u8 0, Value.int .u8 0, Value.int .u8 0, Value.int .u8 0, Value.int .u8 0, Value.int .u8 0, .string ⟨#[]⟩, .int .i64 0, .string ⟨#[]⟩, .int .i64 0, .int .i64 0, .string ⟨#[]⟩, .int .i64 0, .int .i64 0, .string ⟨#[]⟩, .int .i64 0, .int .i64 0, .int .i64 0, .slice none 0 0, .int .i64 0, .slice none 0 0] 34 (0, 0)) := by rw [hX, drew_heapM]; exact v45
    have hy3 : W2.heap[g]? = some (.cells RW.row 34 (0, 0)) := by rw [hX, drew_heapM, HROW.out]; exact u45
    have hb2 : Below w.heap.size w W2 := by rw [hX]; exact ((((((((((((((hbel.setCell (p := ⟨g, 35, none⟩) (by show _ ≤ g; omega) _).setCell (p := ⟨g, 36, none⟩) (by show _ ≤ g; omega) _).setCell (p := ⟨g, 37, none⟩) (by show _ ≤ g; omega) _).setCell (p := ⟨g, 38, none⟩) (by show _ ≤ g; omega) _).setCell (p := ⟨g, 39, none⟩) (by show _ ≤ g; omega) _).setCell (p := ⟨g, 40, none⟩) (by show _ ≤ g; omega) _).setCell (p := ⟨g, 41, none⟩) (by show _ ≤ g; omega) _).setCell (p := ⟨g, 42, none⟩) (by show _ ≤ g; omega) _).setCell (p := ⟨g, 44, none⟩) (by show _ ≤ g; omega) _).setCell (p := ⟨g, 46, none⟩) (by show _ ≤ g; omega) _).setCell (p := ⟨g, 47, none⟩) (by show _ ≤ g; omega) _).setCell (p := ⟨g, 48, none⟩) (by show _ ≤ g; omega) _).setCell (p := ⟨g, 49, none⟩) (by show _ ≤ g; omega) _).setCell (p := ⟨g, 45, none⟩) (by show _ ≤ g; omega) _).drew
    clear hX hx hr hy hy9 hbel u35 v35 u36 v36 u37 v37 u38 v38 u39 v39 u40 v40 u41 v41 u42 v42 u44 v44 u46 v46 u47 v47 u48 v48 u49 v49 u45 v45 f35 f36 f37 f38 f39 f40 f41 f42 f44 f46 f47 f48 f49 f45 q0 z0 q1 z1 q2 z2 q3 z3 q4 z4 q5 z5 q6 z6 q7 z7 q8 z8 q9 z9 q10 z10 q11 z11 q12 z12 q13 z13 q14 z14 q15 z15 q16 z16 q17 z17
    have hrg := rangeAt_row5 hy3
    go_wp2_with (first | (refine wpList_load_mid rfl 34 (.tmp 3) rfl (g) 0 rfl RW.row.toList _ hrg Try.underlying34 rfl (msg_info _) ?_; rw [Array.toArray_toList]) | (refine wpList_storeRowTo (Z := RW.row) rfl (.tmp 2) (.tmp 70) 34 rfl (by rw [MsgV.row_size]; kernel_rfl) rfl (by rfl) hr2 (by rw [MsgV.row_size]; rfl) (MsgV.row_one _) ?_))
    have hZ := setRow_heap _ _ _ RW.row _ _ hr2
    have hrd := run_loadVar_mid (P := Try.prog) _ (w.heap.size + 1) 0 34 RW.row.toList _ (rangeAt_row5 hZ) Try.underlying34 rfl (msg_info _)
    rw [Array.toArray_toList] at hrd
    refine bodyPost_ret (v := .agg RW.row) ?_ rfl ?_
    · simp [results, Try.results25, asAddr]
      exact hrd
    exact ⟨rfl, below_setRow hb2 (by omega) _⟩
set_option maxRecDepth 100000 in
set_option maxHeartbeats 4000000 in
theorem refPlain_1 (hh : Int) (ht : Int) (rt : H32) (sp : ByteArray) (sc : Int) (dp : ByteArray) (dc : Int) (sq : Int) (da : ByteArray) (th : Int) (ta : Int) (ack : ByteArray) (nx : Int) (he : Int) (pct : Int) (pa : Option Addr) (pn : Nat) (pc : Nat) (pxs : List LeafV) (cct : Int) (ca : Option Addr) (cn : Nat) (cc : Nat) (cxs : List LeafV) (w : World) :
    Calls Try.prog 25 #[.agg (⟨1, hh, ht, rt, sp, sc, dp, dc, sq, da, th, ta, ack, nx, he, pct, pa, pn, pc, pxs, cct, ca, cn, cc, cxs⟩ : MsgV).row] w fun e w' => e = .returned (.agg (⟨1, hh, ht, rt, sp, sc, dp, dc, sq, da, th, ta, ack, nx, he, pct, pa, pn, pc, pxs, cct, ca, cn, cc, cxs⟩ : MsgV).plain.row) ∧ Below w.heap.size w w' := by
  obtain ⟨RW, hRW⟩ : ∃ q : MsgV, (⟨1, hh, ht, rt, sp, sc, dp, dc, sq, da, th, ta, ack, nx, he, pct, pa, pn, pc, pxs, cct, ca, cn, cc, cxs⟩ : MsgV).plain = q := ⟨_, rfl⟩
  have hrow : RW.row = (((MsgV.zero 1).row.toList.take 1 ++ hdL hh ht rt) ++ (MsgV.zero 1).row.toList.drop 35).toArray := by
    rw [← hRW]
    have h1 : (MsgV.zero 1).row.toList.take 1 = [Value.int .i64 1] := rfl
    have h2 : (MsgV.zero 1).row.toList.drop 35 = (MsgV.zero 1).back := by rw [MsgV.row_split]; show List.drop 35 (_ ++ _) = _; rw [← MsgV.front_len (MsgV.zero 1)]; exact List.drop_left
    rw [h1, h2, MsgV.row_split]
    rfl
  rw [hRW]
  have HPL := Lib.hid (rfl : RW.row = RW.row)
  have HROW := Lib.hid hrow
  clear hrow hRW
  have hx0 := al2_0 w (.cells (⟨1, hh, ht, rt, sp, sc, dp, dc, sq, da, th, ta, ack, nx, he, pct, pa, pn, pc, pxs, cct, ca, cn, cc, cxs⟩ : MsgV).row 34) (.cells #[.int .i64 0, .int .i64 0, .int .i64 0, Value.int .u8 0, Value.int .u8 0, Value.int .u8 0, Value.int .u8 0, Value.int .u8 0, Value.int .u8 0, Value.int .u8 0, Value.int .u8 0, Value.int .u8 0, Value.int .u8 0, Value.int .u8 0, Value.int .u8 0, Value.int .u8 0, Value.int .u8 0, Value.int .u8 0, Value.int .u8 0, Value.int .u8 0, Value.int .u8 0, Value.int .u8 0, Value.int .u8 0, Value.int .u8 0, Value.int .u8 0, Value.int .u8 0, Value.int .u8 0, Value.int .u8 0, Value.int .u8 0, Value.int .u8 0, Value.int .u8 0, Value.int .u8 0, Value.int .u8 0, Value.int .u8 0, Value.int .u8 0, .string ⟨#[]⟩, .int .i64 0, .string ⟨#[]⟩, .int .i64 0, .int .i64 0, .string ⟨#[]⟩, .int .i64 0, .int .i64 0, .string ⟨#[]⟩, .int .i64 0, .int .i64 0, .int .i64 0, .slice none 0 0, .int .i64 0, .slice none 0 0] 34)
  have hr0 := al2_1 w (.cells (⟨1, hh, ht, rt, sp, sc, dp, dc, sq, da, th, ta, ack, nx, he, pct, pa, pn, pc, pxs, cct, ca, cn, cc, cxs⟩ : MsgV).row 34) (.cells #[.int .i64 0, .int .i64 0, .int .i64 0, Value.int .u8 0, Value.int .u8 0, Value.int .u8 0, Value.int .u8 0, Value.int .u8 0, Value.int .u8 0, Value.int .u8 0, Value.int .u8 0, Value.int .u8 0, Value.int .u8 0, Value.int .u8 0, Value.int .u8 0, Value.int .u8 0, Value.int .u8 0, Value.int .u8 0, Value.int .u8 0, Value.int .u8 0, Value.int .u8 0, Value.int .u8 0, Value.int .u8 0, Value.int .u8 0, Value.int .u8 0, Value.int .u8 0, Value.int .u8 0, Value.int .u8 0, Value.int .u8 0, Value.int .u8 0, Value.int .u8 0, Value.int .u8 0, Value.int .u8 0, Value.int .u8 0, Value.int .u8 0, .string ⟨#[]⟩, .int .i64 0, .string ⟨#[]⟩, .int .i64 0, .int .i64 0, .string ⟨#[]⟩, .int .i64 0, .int .i64 0, .string ⟨#[]⟩, .int .i64 0, .int .i64 0, .int .i64 0, .slice none 0 0, .int .i64 0, .slice none 0 0] 34)
  have hbA := al2_below w (.cells (⟨1, hh, ht, rt, sp, sc, dp, dc, sq, da, th, ta, ack, nx, he, pct, pa, pn, pc, pxs, cct, ca, cn, cc, cxs⟩ : MsgV).row 34) (.cells #[.int .i64 0, .int .i64 0, .int .i64 0, Value.int .u8 0, Value.int .u8 0, Value.int .u8 0, Value.int .u8 0, Value.int .u8 0, Value.int .u8 0, Value.int .u8 0, Value.int .u8 0, Value.int .u8 0, Value.int .u8 0, Value.int .u8 0, Value.int .u8 0, Value.int .u8 0, Value.int .u8 0, Value.int .u8 0, Value.int .u8 0, Value.int .u8 0, Value.int .u8 0, Value.int .u8 0, Value.int .u8 0, Value.int .u8 0, Value.int .u8 0, Value.int .u8 0, Value.int .u8 0, Value.int .u8 0, Value.int .u8 0, Value.int .u8 0, Value.int .u8 0, Value.int .u8 0, Value.int .u8 0, Value.int .u8 0, Value.int .u8 0, .string ⟨#[]⟩, .int .i64 0, .string ⟨#[]⟩, .int .i64 0, .int .i64 0, .string ⟨#[]⟩, .int .i64 0, .int .i64 0, .string ⟨#[]⟩, .int .i64 0, .int .i64 0, .int .i64 0, .slice none 0 0, .int .i64 0, .slice none 0 0] 34)
  go_enter Try.func25, Try.ntmps25
  go_upto_region 1 with fail
  refine wp_nameE _ (fun W0 hX => ?_)
  have hx : W0.heap[w.heap.size]? = some (.cells (⟨1, hh, ht, rt, sp, sc, dp, dc, sq, da, th, ta, ack, nx, he, pct, pa, pn, pc, pxs, cct, ca, cn, cc, cxs⟩ : MsgV).row 34 (0, 0)) := by rw [hX]; exact hx0
  have hr : W0.heap[w.heap.size + 1]? = some (.cells #[.int .i64 0, .int .i64 0, .int .i64 0, Value.int .u8 0, Value.int .u8 0, Value.int .u8 0, Value.int .u8 0, Value.int .u8 0, Value.int .u8 0, Value.int .u8 0, Value.int .u8 0, Value.int .u8 0, Value.int .u8 0, Value.int .u8 0, Value.int .u8 0, Value.int .u8 0, Value.int .u8 0, Value.int .u8 0, Value.int .u8 0, Value.int .u8 0, Value.int .u8 0, Value.int .u8 0, Value.int .u8 0, Value.int .u8 0, Value.int .u8 0, Value.int .u8 0, Value.int .u8 0, Value.int .u8 0, Value.int .u8 0, Value.int .u8 0, Value.int .u8 0, Value.int .u8 0, Value.int .u8 0, Value.int .u8 0, Value.int .u8 0, .string ⟨#[]⟩, .int .i64 0, .string ⟨#[]⟩, .int .i64 0, .int .i64 0, .string ⟨#[]⟩, .int .i64 0, .int .i64 0, .string ⟨#[]⟩, .int .i64 0, .int .i64 0, .int .i64 0, .slice none 0 0, .int .i64 0, .slice none 0 0] 34 (0, 0)) := by rw [hX]; exact hr0
  have hbel : Below w.heap.size w W0 := by rw [hX]; exact hbA
  clear hX hx0 hr0 hbA
  have hrl : w.heap.size + 1 < W0.heap.size := (Array.getElem?_eq_some_iff.1 hr).1
  obtain ⟨q0, q1, q2, q3, q4, q5, q6, q7, q8, q9, q10, q11, q12, q13, q14, q15, q16, q17⟩ := msg_cells hx
  simp only at q0 q1 q2 q3 q4 q5 q6 q7 q8 q9 q10 q11 q12 q13 q14 q15 q16 q17
  go_step
  go_step
  go_step
  go_step
  go_step
  go_step
  go_step
  refine wpList_build1 rfl 34 0 (.tmp 5) rfl rfl (build_msg 1 _) ?_
  go_step
  go_step
  go_step
  refine wpList_storeRowTo (Z := (MsgV.zero 1).row) rfl (.tmp 3) (.tmp 6) 34 rfl (by rw [MsgV.row_size]; kernel_rfl) rfl (by rfl) (heap_push _ _ _) (by rw [MsgV.row_size]; rfl) (MsgV.row_one _) ?_
  go_step
  simp only [Act.put]
  go_upto_region 2 with fail
  refine wp_nameE _ (fun W1 hX => ?_)
  have hb01 : Below W0.heap.size W0 W1 := by rw [hX]; exact below_setRow (Below.alloc (Below.refl _ _) (Nat.le_refl _) _) (Nat.le_refl _) _
  have hy : W1.heap[W0.heap.size]? = some (.cells (MsgV.zero 1).row 34 (0, 0)) := by rw [hX]; exact setRow_heap _ _ _ _ _ _ (heap_push _ _ _)
  have hx := cells_of hx hb01 (by omega)
  have hr := cells_of hr hb01 hrl
  have hbel := hbel.trans (hb01.mono hbel.size)
  obtain ⟨g, hgg⟩ : ∃ g, W0.heap.size = g := ⟨_, rfl⟩
  rw [hgg] at hy hrl
  simp only [hgg]
  clear hX hb01 hgg q0 q1 q2 q3 q4 q5 q6 q7 q8 q9 q10 q11 q12 q13 q14 q15 q16 q17
  obtain ⟨q0, q1, q2, q3, q4, q5, q6, q7, q8, q9, q10, q11, q12, q13, q14, q15, q16, q17⟩ := msg_cells hx
  simp only at q0 q1 q2 q3 q4 q5 q6 q7 q8 q9 q10 q11 q12 q13 q14 q15 q16 q17
  have hdg := msg_header hx
  simp only at hdg
  have hth : W1.there (g) 1 (hdL hh ht rt).toArray.size := fun j hj => by
    rw [List.size_toArray, hdL_len] at hj
    refine ⟨?_, frozen_heap hy _⟩
    rw [cell_heap hy, Array.getElem?_eq_getElem (by rw [MsgV.row_size]; omega)]; rfl
  have hone : (hdL hh ht rt).toArray.all (·.oneCell') = true := by
    rw [Array.all_eq_true_iff_forall_mem]
    intro v hv
    rw [List.mem_toArray] at hv
    unfold hdL at hv
    rcases List.mem_append.1 hv with h | h
    · simp at h; rcases h with rfl | rfl <;> rfl
    · exact (Array.all_eq_true_iff_forall_mem.1 (hrow_one rt.1)) v (by rw [← H32.row]; simpa using h)
  go_upto_region 13 with (first | (refine wpList_load_mid rfl 25 (.tmp 11) rfl w.heap.size 1 rfl (hdL hh ht rt) _ hdg Try.underlying25 rfl (hd_infoM hh ht rt) ?_) | (refine wpList_store_mid rfl 25 (.tmp 13) (.tmp 12) rfl (g) 1 (hdL hh ht rt).toArray rfl rfl hth (by rw [List.size_toArray, hdL_len]; kernel_rfl) hone ?_))
  refine wp_nameE _ (fun W2 hX => ?_)
  have hy3 : W2.heap[g]? = some (.cells RW.row 34 (0, 0)) := by
    rw [hX, HROW.out]
    have := setCells_row (g) 34 (0, 0) (hdL hh ht rt) 1 W1 _ hy (by rw [hdL_len, MsgV.row_size]; decide)
    rw [hdL_len] at this
    exact this
  have hr2 : W2.heap[w.heap.size + 1]? = some (.cells #[.int .i64 0, .int .i64 0, .int .i64 0, Value.int .u8 0, Value.int .u8 0, Value.int .u8 0, Value.int .u8 0, Value.int .u8 0, Value.int .u8 0, Value.int .u8 0, Value.int .u8 0, Value.int .u8 0, Value.int .u8 0, Value.int .u8 0, Value.int .u8 0, Value.int .u8 0, Value.int .u8 0, Value.int .u8 0, Value.int .u8 0, Value.int .u8 0, Value.int .u8 0, Value.int .u8 0, Value.int .u8 0, Value.int .u8 0, Value.int .u8 0, Value.int .u8 0, Value.int .u8 0, Value.int .u8 0, Value.int .u8 0, Value.int .u8 0, Value.int .u8 0, Value.int .u8 0, Value.int .u8 0, Value.int .u8 0, Value.int .u8 0, .string ⟨#[]⟩, .int .i64 0, .string ⟨#[]⟩, .int .i64 0, .int .i64 0, .string ⟨#[]⟩, .int .i64 0, .int .i64 0, .string ⟨#[]⟩, .int .i64 0, .int .i64 0, .int .i64 0, .slice none 0 0, .int .i64 0, .slice none 0 0] 34 (0, 0)) := by rw [hX, World.heap_setCells_other _ _ _ _ (Array.getElem?_eq_some_iff.1 hr).1 (by omega)]; exact hr
  have hb2 : Below w.heap.size w W2 := by rw [hX]; exact below_setCellsM (by omega) _ _ _ hbel
  clear hX hx hr hy hbel hdg hth hone q0 q1 q2 q3 q4 q5 q6 q7 q8 q9 q10 q11 q12 q13 q14 q15 q16 q17
  have hrg := rangeAt_row5 hy3
  go_wp2_with (first | (refine wpList_load_mid rfl 34 (.tmp 3) rfl (g) 0 rfl RW.row.toList _ hrg Try.underlying34 rfl (msg_info _) ?_; rw [Array.toArray_toList]) | (refine wpList_storeRowTo (Z := RW.row) rfl (.tmp 2) (.tmp 70) 34 rfl (by rw [MsgV.row_size]; kernel_rfl) rfl (by rfl) hr2 (by rw [MsgV.row_size]; rfl) (MsgV.row_one _) ?_))
  have hZ := setRow_heap _ _ _ RW.row _ _ hr2
  have hrd := run_loadVar_mid (P := Try.prog) _ (w.heap.size + 1) 0 34 RW.row.toList _ (rangeAt_row5 hZ) Try.underlying34 rfl (msg_info _)
  rw [Array.toArray_toList] at hrd
  refine bodyPost_ret (v := .agg RW.row) ?_ rfl ?_
  · simp [results, Try.results25, asAddr]
    exact hrd
  exact ⟨rfl, below_setRow hb2 (by omega) _⟩
set_option maxRecDepth 100000 in
set_option maxHeartbeats 4000000 in
theorem refPlain_0 (kd : Int) (hh : Int) (ht : Int) (rt : H32) (sp : ByteArray) (sc : Int) (dp : ByteArray) (dc : Int) (sq : Int) (da : ByteArray) (th : Int) (ta : Int) (ack : ByteArray) (nx : Int) (he : Int) (pct : Int) (pa : Option Addr) (pn : Nat) (pc : Nat) (pxs : List LeafV) (cct : Int) (ca : Option Addr) (cn : Nat) (cc : Nat) (cxs : List LeafV) (w : World) (h1 : kd ≠ 1) (h2 : ¬ (2 ≤ kd ∧ kd ≤ 5)) :
    Calls Try.prog 25 #[.agg (⟨kd, hh, ht, rt, sp, sc, dp, dc, sq, da, th, ta, ack, nx, he, pct, pa, pn, pc, pxs, cct, ca, cn, cc, cxs⟩ : MsgV).row] w fun e w' => e = .returned (.agg (⟨kd, hh, ht, rt, sp, sc, dp, dc, sq, da, th, ta, ack, nx, he, pct, pa, pn, pc, pxs, cct, ca, cn, cc, cxs⟩ : MsgV).plain.row) ∧ Below w.heap.size w w' := by
  obtain ⟨RW, hRW⟩ : ∃ q : MsgV, (⟨kd, hh, ht, rt, sp, sc, dp, dc, sq, da, th, ta, ack, nx, he, pct, pa, pn, pc, pxs, cct, ca, cn, cc, cxs⟩ : MsgV).plain = q := ⟨_, rfl⟩
  have hrow : RW.row = (MsgV.zero kd).row := by rw [← hRW]; unfold MsgV.plain; rw [if_neg h1, if_neg h2]
  rw [hRW]
  have HPL := Lib.hid (rfl : RW.row = RW.row)
  have HROW := Lib.hid hrow
  have e1 : (kd == 1) = false := beq_eq_false_iff_ne.2 (by omega)
  have e2 : (kd == 2) = false := beq_eq_false_iff_ne.2 (by omega)
  have e3 : (kd == 3) = false := beq_eq_false_iff_ne.2 (by omega)
  have e4 : (kd == 4) = false := beq_eq_false_iff_ne.2 (by omega)
  have e5 : (kd == 5) = false := beq_eq_false_iff_ne.2 (by omega)
  clear hrow hRW h1 h2
  have hx0 := al2_0 w (.cells (⟨kd, hh, ht, rt, sp, sc, dp, dc, sq, da, th, ta, ack, nx, he, pct, pa, pn, pc, pxs, cct, ca, cn, cc, cxs⟩ : MsgV).row 34) (.cells #[.int .i64 0, .int .i64 0, .int .i64 0, Value.int .u8 0, Value.int .u8 0, Value.int .u8 0, Value.int .u8 0, Value.int .u8 0, Value.int .u8 0, Value.int .u8 0, Value.int .u8 0, Value.int .u8 0, Value.int .u8 0, Value.int .u8 0, Value.int .u8 0, Value.int .u8 0, Value.int .u8 0, Value.int .u8 0, Value.int .u8 0, Value.int .u8 0, Value.int .u8 0, Value.int .u8 0, Value.int .u8 0, Value.int .u8 0, Value.int .u8 0, Value.int .u8 0, Value.int .u8 0, Value.int .u8 0, Value.int .u8 0, Value.int .u8 0, Value.int .u8 0, Value.int .u8 0, Value.int .u8 0, Value.int .u8 0, Value.int .u8 0, .string ⟨#[]⟩, .int .i64 0, .string ⟨#[]⟩, .int .i64 0, .int .i64 0, .string ⟨#[]⟩, .int .i64 0, .int .i64 0, .string ⟨#[]⟩, .int .i64 0, .int .i64 0, .int .i64 0, .slice none 0 0, .int .i64 0, .slice none 0 0] 34)
  have hr0 := al2_1 w (.cells (⟨kd, hh, ht, rt, sp, sc, dp, dc, sq, da, th, ta, ack, nx, he, pct, pa, pn, pc, pxs, cct, ca, cn, cc, cxs⟩ : MsgV).row 34) (.cells #[.int .i64 0, .int .i64 0, .int .i64 0, Value.int .u8 0, Value.int .u8 0, Value.int .u8 0, Value.int .u8 0, Value.int .u8 0, Value.int .u8 0, Value.int .u8 0, Value.int .u8 0, Value.int .u8 0, Value.int .u8 0, Value.int .u8 0, Value.int .u8 0, Value.int .u8 0, Value.int .u8 0, Value.int .u8 0, Value.int .u8 0, Value.int .u8 0, Value.int .u8 0, Value.int .u8 0, Value.int .u8 0, Value.int .u8 0, Value.int .u8 0, Value.int .u8 0, Value.int .u8 0, Value.int .u8 0, Value.int .u8 0, Value.int .u8 0, Value.int .u8 0, Value.int .u8 0, Value.int .u8 0, Value.int .u8 0, Value.int .u8 0, .string ⟨#[]⟩, .int .i64 0, .string ⟨#[]⟩, .int .i64 0, .int .i64 0, .string ⟨#[]⟩, .int .i64 0, .int .i64 0, .string ⟨#[]⟩, .int .i64 0, .int .i64 0, .int .i64 0, .slice none 0 0, .int .i64 0, .slice none 0 0] 34)
  have hbA := al2_below w (.cells (⟨kd, hh, ht, rt, sp, sc, dp, dc, sq, da, th, ta, ack, nx, he, pct, pa, pn, pc, pxs, cct, ca, cn, cc, cxs⟩ : MsgV).row 34) (.cells #[.int .i64 0, .int .i64 0, .int .i64 0, Value.int .u8 0, Value.int .u8 0, Value.int .u8 0, Value.int .u8 0, Value.int .u8 0, Value.int .u8 0, Value.int .u8 0, Value.int .u8 0, Value.int .u8 0, Value.int .u8 0, Value.int .u8 0, Value.int .u8 0, Value.int .u8 0, Value.int .u8 0, Value.int .u8 0, Value.int .u8 0, Value.int .u8 0, Value.int .u8 0, Value.int .u8 0, Value.int .u8 0, Value.int .u8 0, Value.int .u8 0, Value.int .u8 0, Value.int .u8 0, Value.int .u8 0, Value.int .u8 0, Value.int .u8 0, Value.int .u8 0, Value.int .u8 0, Value.int .u8 0, Value.int .u8 0, Value.int .u8 0, .string ⟨#[]⟩, .int .i64 0, .string ⟨#[]⟩, .int .i64 0, .int .i64 0, .string ⟨#[]⟩, .int .i64 0, .int .i64 0, .string ⟨#[]⟩, .int .i64 0, .int .i64 0, .int .i64 0, .slice none 0 0, .int .i64 0, .slice none 0 0] 34)
  go_enter Try.func25, Try.ntmps25
  go_upto_region 1 with fail
  refine wp_nameE _ (fun W0 hX => ?_)
  have hx : W0.heap[w.heap.size]? = some (.cells (⟨kd, hh, ht, rt, sp, sc, dp, dc, sq, da, th, ta, ack, nx, he, pct, pa, pn, pc, pxs, cct, ca, cn, cc, cxs⟩ : MsgV).row 34 (0, 0)) := by rw [hX]; exact hx0
  have hr : W0.heap[w.heap.size + 1]? = some (.cells #[.int .i64 0, .int .i64 0, .int .i64 0, Value.int .u8 0, Value.int .u8 0, Value.int .u8 0, Value.int .u8 0, Value.int .u8 0, Value.int .u8 0, Value.int .u8 0, Value.int .u8 0, Value.int .u8 0, Value.int .u8 0, Value.int .u8 0, Value.int .u8 0, Value.int .u8 0, Value.int .u8 0, Value.int .u8 0, Value.int .u8 0, Value.int .u8 0, Value.int .u8 0, Value.int .u8 0, Value.int .u8 0, Value.int .u8 0, Value.int .u8 0, Value.int .u8 0, Value.int .u8 0, Value.int .u8 0, Value.int .u8 0, Value.int .u8 0, Value.int .u8 0, Value.int .u8 0, Value.int .u8 0, Value.int .u8 0, Value.int .u8 0, .string ⟨#[]⟩, .int .i64 0, .string ⟨#[]⟩, .int .i64 0, .int .i64 0, .string ⟨#[]⟩, .int .i64 0, .int .i64 0, .string ⟨#[]⟩, .int .i64 0, .int .i64 0, .int .i64 0, .slice none 0 0, .int .i64 0, .slice none 0 0] 34 (0, 0)) := by rw [hX]; exact hr0
  have hbel : Below w.heap.size w W0 := by rw [hX]; exact hbA
  clear hX hx0 hr0 hbA
  have hrl : w.heap.size + 1 < W0.heap.size := (Array.getElem?_eq_some_iff.1 hr).1
  obtain ⟨q0, q1, q2, q3, q4, q5, q6, q7, q8, q9, q10, q11, q12, q13, q14, q15, q16, q17⟩ := msg_cells hx
  simp only at q0 q1 q2 q3 q4 q5 q6 q7 q8 q9 q10 q11 q12 q13 q14 q15 q16 q17
  go_step
  go_step
  go_step
  go_step
  go_step
  go_step
  go_step
  refine wpList_build1 rfl 34 0 (.tmp 5) rfl rfl (build_msg kd _) ?_
  go_step
  go_step
  go_step
  refine wpList_storeRowTo (Z := (MsgV.zero kd).row) rfl (.tmp 3) (.tmp 6) 34 rfl (by rw [MsgV.row_size]; kernel_rfl) rfl (by rfl) (heap_push _ _ _) (by rw [MsgV.row_size]; rfl) (MsgV.row_one _) ?_
  go_step
  simp only [Act.put]
  go_upto_region 2 with fail
  refine wp_nameE _ (fun W1 hX => ?_)
  have hb01 : Below W0.heap.size W0 W1 := by rw [hX]; exact below_setRow (Below.alloc (Below.refl _ _) (Nat.le_refl _) _) (Nat.le_refl _) _
  have hy : W1.heap[W0.heap.size]? = some (.cells (MsgV.zero kd).row 34 (0, 0)) := by rw [hX]; exact setRow_heap _ _ _ _ _ _ (heap_push _ _ _)
  have hx := cells_of hx hb01 (by omega)
  have hr := cells_of hr hb01 hrl
  have hbel := hbel.trans (hb01.mono hbel.size)
  obtain ⟨g, hgg⟩ : ∃ g, W0.heap.size = g := ⟨_, rfl⟩
  rw [hgg] at hy hrl
  simp only [hgg]
  clear hX hb01 hgg q0 q1 q2 q3 q4 q5 q6 q7 q8 q9 q10 q11 q12 q13 q14 q15 q16 q17
  obtain ⟨q0, q1, q2, q3, q4, q5, q6, q7, q8, q9, q10, q11, q12, q13, q14, q15, q16, q17⟩ := msg_cells hx
  simp only at q0 q1 q2 q3 q4 q5 q6 q7 q8 q9 q10 q11 q12 q13 q14 q15 q16 q17
  have hy3 : W1.heap[g]? = some (.cells RW.row 34 (0, 0)) := by rw [HROW.out]; exact hy
  have hrg := rangeAt_row5 hy3
  go_wp2_with (first | (refine wpList_load_mid rfl 34 (.tmp 3) rfl (g) 0 rfl RW.row.toList _ hrg Try.underlying34 rfl (msg_info _) ?_; rw [Array.toArray_toList]) | (refine wpList_storeRowTo (Z := RW.row) rfl (.tmp 2) (.tmp 70) 34 rfl (by rw [MsgV.row_size]; kernel_rfl) rfl (by rfl) hr (by rw [MsgV.row_size]; rfl) (MsgV.row_one _) ?_))
  have hZ := setRow_heap _ _ _ RW.row _ _ hr
  have hrd := run_loadVar_mid (P := Try.prog) _ (w.heap.size + 1) 0 34 RW.row.toList _ (rangeAt_row5 hZ) Try.underlying34 rfl (msg_info _)
  rw [Array.toArray_toList] at hrd
  refine bodyPost_ret (v := .agg RW.row) ?_ rfl ?_
  · simp [results, Try.results25, asAddr]
    exact hrd
  exact ⟨rfl, below_setRow hbel (by omega) _⟩
set_option maxRecDepth 100000 in
set_option maxHeartbeats 4000000 in
theorem refPlain_any (m : MsgV) (w : World) :
    Calls Try.prog 25 #[.agg m.row] w fun e w' => e = .returned (.agg m.plain.row) ∧ Below w.heap.size w w' := by
  obtain ⟨kd, hh, ht, rt, sp, sc, dp, dc, sq, da, th, ta, ack, nx, he, pct, pa, pn, pc, pxs, cct, ca, cn, cc, cxs⟩ := m
  by_cases k1 : kd = 1
  · subst k1; exact refPlain_1 hh ht rt sp sc dp dc sq da th ta ack nx he pct pa pn pc pxs cct ca cn cc cxs w
  by_cases k2 : kd = 2
  · subst k2; exact refPlain_2 hh ht rt sp sc dp dc sq da th ta ack nx he pct pa pn pc pxs cct ca cn cc cxs w
  by_cases k3 : kd = 3
  · subst k3; exact refPlain_3 hh ht rt sp sc dp dc sq da th ta ack nx he pct pa pn pc pxs cct ca cn cc cxs w
  by_cases k4 : kd = 4
  · subst k4; exact refPlain_4 hh ht rt sp sc dp dc sq da th ta ack nx he pct pa pn pc pxs cct ca cn cc cxs w
  by_cases k5 : kd = 5
  · subst k5; exact refPlain_5 hh ht rt sp sc dp dc sq da th ta ack nx he pct pa pn pc pxs cct ca cn cc cxs w
  exact refPlain_0 kd hh ht rt sp sc dp dc sq da th ta ack nx he pct pa pn pc pxs cct ca cn cc cxs w k1 (by omega)
end Go.Proofs.Ythipnkbfdkmhaaa
