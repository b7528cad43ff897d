/- life.Entry.mark. -/
import Derived.Test.YtbckncopdkmoeaaLf4
import Derived.Test.YtbckncopdkmoeaaEv2
import Derived.Deep.MidRow
import Derived.WalkKit
import Derived.ProofKit
import Derived.Handy
import Derived.Below
import Derived.Lib.Hide
import Derived.IntWalk
import Derived.Outline
import Derived.WalkLawsBesides
import Derived.WalkSpells
namespace Go.Proofs.Ytbckncopdkmoeaa
open Go.RowKit
attribute [local go_sem] strV
set_option linter.unusedVariables false
set_option linter.unusedSimpArgs false
/-- An event of a kind: why it is refused by an entry; what it makes of it. -/
def markE (x : Ent) (kd : Int) : Int := if kd = 1 then (if x.se then 8 else 0) else if kd = 2 then (if x.re then 8 else 0) else if kd = 3 then (if x.wr then 8 else 0) else if kd = 4 then (if x.ac then 8 else if x.ti then 16 else 0) else (if x.ti then 8 else if x.ac then 16 else 0)
def markR (x : Ent) (kd : Int) (ack : ByteArray) : Ent := if kd = 1 then { x with se := true } else if kd = 2 then { x with re := true } else if kd = 3 then { x with wr := true, ack := ack } else if kd = 4 then { x with ac := true } else { x with ti := true }
theorem grown_set {w wr : World} {g k : Nat} {v : Value} (h : w.grownBy wr (some g)) : w.grownBy (wr.setCell ⟨g, k, none⟩ v) (some g) := by
  refine ⟨h.os, h.tape, h.output, ?_, fun i hi hne => ?_⟩
  · show w.heap.size ≤ (wr.heap.modify g _).size
    rw [Array.size_modify]; exact h.size
  · show (wr.heap.modify g _)[i]? = _
    rw [Array.getElem?_modify, if_neg (fun e => hne (by rw [e]))]; exact h.block i hi hne
theorem grown_one {w wr : World} (hb : Below w.heap.size w wr) (g : Nat) : w.grownBy wr (some g) := ⟨hb.os, hb.tape, hb.output, hb.size, fun i hi _ => hb.block i hi⟩
set_option maxRecDepth 100000 in
set_option maxHeartbeats 3200000 in
theorem mark_1 (g : Nat) (x : Ent) (sp : ByteArray) (sc : Int) (dp : ByteArray) (dc : Int) (sq : Int) (da : ByteArray) (th : Int) (ta : Int) (ack : ByteArray) (ep : ByteArray) (ec : Int) (ht : Int) (w : World) (hg : w.heap[g]? = some (.cells x.row 78 (0, 0))) :
    Calls Try.prog 62 #[.pointer (some ⟨g, 0, none⟩), .agg #[.int .i64 1, .string sp, .int .i64 sc, .string dp, .int .i64 dc, .int .i64 sq, .string da, .int .i64 th, .int .i64 ta, .string ack, .string ep, .int .i64 ec, .int .i64 ht]] w fun e w' => e = .returned (.int .i64 (markE x 1)) ∧ (markE x 1 = 0 → w'.heap[g]? = some (.cells (markR x 1 ack).row 78 (0, 0))) ∧ w.grownBy w' (some g) := by
  obtain ⟨xsp, xsc, xdp, xdc, xsq, xda, xth, xta, xack, xse, xre, xwr, xac, xti⟩ := x
  have CF := fun W => flag_any g 1 W
  rw [show flagO 1 = 9 from rfl] at CF
  go_enter Try.func62, Try.ntmps62
  go_upto_region 1 with fail
  refine wp_nameE _ (fun wr hwr => ?_)
  have hq : wr.heap[w.heap.size]? = some (.cells #[.int .i64 1, .string sp, .int .i64 sc, .string dp, .int .i64 dc, .int .i64 sq, .string da, .int .i64 th, .int .i64 ta, .string ack, .string ep, .int .i64 ec, .int .i64 ht] 76 (0, 0)) := by rw [hwr]; exact heap_push w _ _
  have hb1 : Below w.heap.size w wr := by rw [hwr]; exact (Below.refl _ _).alloc (Nat.le_refl _) _
  clear hwr
  have hgr := cells_of hg hb1 (row_lt hg)
  have hG := grown_one hb1 g
  have q0 := cell_heap hq 0; have q9 := cell_heap hq 9
  have p8 : wr.cell? ⟨g, 8, none⟩ = some (.string xack) := cell_heap hgr 8
  have p9 : wr.cell? ⟨g, 9, none⟩ = some (.bool xse) := cell_heap hgr 9
  have p10 : wr.cell? ⟨g, 10, none⟩ = some (.bool xre) := cell_heap hgr 10
  have p11 : wr.cell? ⟨g, 11, none⟩ = some (.bool xwr) := cell_heap hgr 11
  have p12 : wr.cell? ⟨g, 12, none⟩ = some (.bool xac) := cell_heap hgr 12
  have p13 : wr.cell? ⟨g, 13, none⟩ = some (.bool xti) := cell_heap hgr 13
  have f8 := frozen_heap hgr 8; have f9 := frozen_heap hgr 9
  cases xse
  · go_wp2_with (go_at_call 94; refine (CF _).mono ?_; rintro e w1 ⟨rfl, hw1⟩; obtain rfl : _ = w1 := hw1.symm)
    go_ret
    exact ⟨rfl, fun _ => (row_put5 hgr).trans rfl, grown_set hG⟩
  · go_wp2_with (go_at_call 94; refine (CF _).mono ?_; rintro e w1 ⟨rfl, hw1⟩; obtain rfl : _ = w1 := hw1.symm)
    go_ret
    exact ⟨rfl, fun h => absurd (show (8 : Int) = 0 from h) (by decide), hG⟩
set_option maxRecDepth 100000 in
set_option maxHeartbeats 3200000 in
theorem mark_2 (g : Nat) (x : Ent) (sp : ByteArray) (sc : Int) (dp : ByteArray) (dc : Int) (sq : Int) (da : ByteArray) (th : Int) (ta : Int) (ack : ByteArray) (ep : ByteArray) (ec : Int) (ht : Int) (w : World) (hg : w.heap[g]? = some (.cells x.row 78 (0, 0))) :
    Calls Try.prog 62 #[.pointer (some ⟨g, 0, none⟩), .agg #[.int .i64 2, .string sp, .int .i64 sc, .string dp, .int .i64 dc, .int .i64 sq, .string da, .int .i64 th, .int .i64 ta, .string ack, .string ep, .int .i64 ec, .int .i64 ht]] w fun e w' => e = .returned (.int .i64 (markE x 2)) ∧ (markE x 2 = 0 → w'.heap[g]? = some (.cells (markR x 2 ack).row 78 (0, 0))) ∧ w.grownBy w' (some g) := by
  obtain ⟨xsp, xsc, xdp, xdc, xsq, xda, xth, xta, xack, xse, xre, xwr, xac, xti⟩ := x
  have CF := fun W => flag_any g 2 W
  rw [show flagO 2 = 10 from rfl] at CF
  go_enter Try.func62, Try.ntmps62
  go_upto_region 1 with fail
  refine wp_nameE _ (fun wr hwr => ?_)
  have hq : wr.heap[w.heap.size]? = some (.cells #[.int .i64 2, .string sp, .int .i64 sc, .string dp, .int .i64 dc, .int .i64 sq, .string da, .int .i64 th, .int .i64 ta, .string ack, .string ep, .int .i64 ec, .int .i64 ht] 76 (0, 0)) := by rw [hwr]; exact heap_push w _ _
  have hb1 : Below w.heap.size w wr := by rw [hwr]; exact (Below.refl _ _).alloc (Nat.le_refl _) _
  clear hwr
  have hgr := cells_of hg hb1 (row_lt hg)
  have hG := grown_one hb1 g
  have q0 := cell_heap hq 0; have q9 := cell_heap hq 9
  have p8 : wr.cell? ⟨g, 8, none⟩ = some (.string xack) := cell_heap hgr 8
  have p9 : wr.cell? ⟨g, 9, none⟩ = some (.bool xse) := cell_heap hgr 9
  have p10 : wr.cell? ⟨g, 10, none⟩ = some (.bool xre) := cell_heap hgr 10
  have p11 : wr.cell? ⟨g, 11, none⟩ = some (.bool xwr) := cell_heap hgr 11
  have p12 : wr.cell? ⟨g, 12, none⟩ = some (.bool xac) := cell_heap hgr 12
  have p13 : wr.cell? ⟨g, 13, none⟩ = some (.bool xti) := cell_heap hgr 13
  have f8 := frozen_heap hgr 8; have f10 := frozen_heap hgr 10
  cases xre
  · go_wp2_with (go_at_call 94; refine (CF _).mono ?_; rintro e w1 ⟨rfl, hw1⟩; obtain rfl : _ = w1 := hw1.symm)
    go_ret
    exact ⟨rfl, fun _ => (row_put5 hgr).trans rfl, grown_set hG⟩
  · go_wp2_with (go_at_call 94; refine (CF _).mono ?_; rintro e w1 ⟨rfl, hw1⟩; obtain rfl : _ = w1 := hw1.symm)
    go_ret
    exact ⟨rfl, fun h => absurd (show (8 : Int) = 0 from h) (by decide), hG⟩
set_option maxRecDepth 100000 in
set_option maxHeartbeats 3200000 in
theorem mark_3 (g : Nat) (x : Ent) (sp : ByteArray) (sc : Int) (dp : ByteArray) (dc : Int) (sq : Int) (da : ByteArray) (th : Int) (ta : Int) (ack : ByteArray) (ep : ByteArray) (ec : Int) (ht : Int) (w : World) (hg : w.heap[g]? = some (.cells x.row 78 (0, 0))) :
    Calls Try.prog 62 #[.pointer (some ⟨g, 0, none⟩), .agg #[.int .i64 3, .string sp, .int .i64 sc, .string dp, .int .i64 dc, .int .i64 sq, .string da, .int .i64 th, .int .i64 ta, .string ack, .string ep, .int .i64 ec, .int .i64 ht]] w fun e w' => e = .returned (.int .i64 (markE x 3)) ∧ (markE x 3 = 0 → w'.heap[g]? = some (.cells (markR x 3 ack).row 78 (0, 0))) ∧ w.grownBy w' (some g) := by
  obtain ⟨xsp, xsc, xdp, xdc, xsq, xda, xth, xta, xack, xse, xre, xwr, xac, xti⟩ := x
  have CF := fun W => flag_any g 3 W
  rw [show flagO 3 = 11 from rfl] at CF
  go_enter Try.func62, Try.ntmps62
  go_upto_region 1 with fail
  refine wp_nameE _ (fun wr hwr => ?_)
  have hq : wr.heap[w.heap.size]? = some (.cells #[.int .i64 3, .string sp, .int .i64 sc, .string dp, .int .i64 dc, .int .i64 sq, .string da, .int .i64 th, .int .i64 ta, .string ack, .string ep, .int .i64 ec, .int .i64 ht] 76 (0, 0)) := by rw [hwr]; exact heap_push w _ _
  have hb1 : Below w.heap.size w wr := by rw [hwr]; exact (Below.refl _ _).alloc (Nat.le_refl _) _
  clear hwr
  have hgr := cells_of hg hb1 (row_lt hg)
  have hG := grown_one hb1 g
  have q0 := cell_heap hq 0; have q9 := cell_heap hq 9
  have p8 : wr.cell? ⟨g, 8, none⟩ = some (.string xack) := cell_heap hgr 8
  have p9 : wr.cell? ⟨g, 9, none⟩ = some (.bool xse) := cell_heap hgr 9
  have p10 : wr.cell? ⟨g, 10, none⟩ = some (.bool xre) := cell_heap hgr 10
  have p11 : wr.cell? ⟨g, 11, none⟩ = some (.bool xwr) := cell_heap hgr 11
  have p12 : wr.cell? ⟨g, 12, none⟩ = some (.bool xac) := cell_heap hgr 12
  have p13 : wr.cell? ⟨g, 13, none⟩ = some (.bool xti) := cell_heap hgr 13
  have f8 := frozen_heap hgr 8; have f11 := frozen_heap hgr 11
  cases xwr
  · go_wp2_with (go_at_call 94; refine (CF _).mono ?_; rintro e w1 ⟨rfl, hw1⟩; obtain rfl : _ = w1 := hw1.symm)
    go_ret
    exact ⟨rfl, fun _ => (row_put5 (row_put5 hgr)).trans rfl, grown_set (grown_set hG)⟩
  · go_wp2_with (go_at_call 94; refine (CF _).mono ?_; rintro e w1 ⟨rfl, hw1⟩; obtain rfl : _ = w1 := hw1.symm)
    go_ret
    exact ⟨rfl, fun h => absurd (show (8 : Int) = 0 from h) (by decide), hG⟩
set_option maxRecDepth 100000 in
set_option maxHeartbeats 3200000 in
theorem mark_4 (g : Nat) (x : Ent) (sp : ByteArray) (sc : Int) (dp : ByteArray) (dc : Int) (sq : Int) (da : ByteArray) (th : Int) (ta : Int) (ack : ByteArray) (ep : ByteArray) (ec : Int) (ht : Int) (w : World) (hg : w.heap[g]? = some (.cells x.row 78 (0, 0))) :
    Calls Try.prog 62 #[.pointer (some ⟨g, 0, none⟩), .agg #[.int .i64 4, .string sp, .int .i64 sc, .string dp, .int .i64 dc, .int .i64 sq, .string da, .int .i64 th, .int .i64 ta, .string ack, .string ep, .int .i64 ec, .int .i64 ht]] w fun e w' => e = .returned (.int .i64 (markE x 4)) ∧ (markE x 4 = 0 → w'.heap[g]? = some (.cells (markR x 4 ack).row 78 (0, 0))) ∧ w.grownBy w' (some g) := by
  obtain ⟨xsp, xsc, xdp, xdc, xsq, xda, xth, xta, xack, xse, xre, xwr, xac, xti⟩ := x
  have CF := fun W => flag_any g 4 W
  rw [show flagO 4 = 12 from rfl] at CF
  go_enter Try.func62, Try.ntmps62
  go_upto_region 1 with fail
  refine wp_nameE _ (fun wr hwr => ?_)
  have hq : wr.heap[w.heap.size]? = some (.cells #[.int .i64 4, .string sp, .int .i64 sc, .string dp, .int .i64 dc, .int .i64 sq, .string da, .int .i64 th, .int .i64 ta, .string ack, .string ep, .int .i64 ec, .int .i64 ht] 76 (0, 0)) := by rw [hwr]; exact heap_push w _ _
  have hb1 : Below w.heap.size w wr := by rw [hwr]; exact (Below.refl _ _).alloc (Nat.le_refl _) _
  clear hwr
  have hgr := cells_of hg hb1 (row_lt hg)
  have hG := grown_one hb1 g
  have q0 := cell_heap hq 0; have q9 := cell_heap hq 9
  have p8 : wr.cell? ⟨g, 8, none⟩ = some (.string xack) := cell_heap hgr 8
  have p9 : wr.cell? ⟨g, 9, none⟩ = some (.bool xse) := cell_heap hgr 9
  have p10 : wr.cell? ⟨g, 10, none⟩ = some (.bool xre) := cell_heap hgr 10
  have p11 : wr.cell? ⟨g, 11, none⟩ = some (.bool xwr) := cell_heap hgr 11
  have p12 : wr.cell? ⟨g, 12, none⟩ = some (.bool xac) := cell_heap hgr 12
  have p13 : wr.cell? ⟨g, 13, none⟩ = some (.bool xti) := cell_heap hgr 13
  have f8 := frozen_heap hgr 8; have f12 := frozen_heap hgr 12
  cases xac
  · cases xti
    · go_wp2_with (go_at_call 94; refine (CF _).mono ?_; rintro e w1 ⟨rfl, hw1⟩; obtain rfl : _ = w1 := hw1.symm)
      go_ret
      exact ⟨rfl, fun _ => (row_put5 hgr).trans rfl, grown_set hG⟩
    · go_wp2_with (go_at_call 94; refine (CF _).mono ?_; rintro e w1 ⟨rfl, hw1⟩; obtain rfl : _ = w1 := hw1.symm)
      go_ret
      exact ⟨rfl, fun h => absurd (show (16 : Int) = 0 from h) (by decide), hG⟩
  · go_wp2_with (go_at_call 94; refine (CF _).mono ?_; rintro e w1 ⟨rfl, hw1⟩; obtain rfl : _ = w1 := hw1.symm)
    go_ret
    exact ⟨rfl, fun h => absurd (show (8 : Int) = 0 from h) (by decide), hG⟩
set_option maxRecDepth 100000 in
set_option maxHeartbeats 3200000 in
theorem mark_5 (g : Nat) (x : Ent) (sp : ByteArray) (sc : Int) (dp : ByteArray) (dc : Int) (sq : Int) (da : ByteArray) (th : Int) (ta : Int) (ack : ByteArray) (ep : ByteArray) (ec : Int) (ht : Int) (w : World) (hg : w.heap[g]? = some (.cells x.row 78 (0, 0))) :
    Calls Try.prog 62 #[.pointer (some ⟨g, 0, none⟩), .agg #[.int .i64 5, .string sp, .int .i64 sc, .string dp, .int .i64 dc, .int .i64 sq, .string da, .int .i64 th, .int .i64 ta, .string ack, .string ep, .int .i64 ec, .int .i64 ht]] w fun e w' => e = .returned (.int .i64 (markE x 5)) ∧ (markE x 5 = 0 → w'.heap[g]? = some (.cells (markR x 5 ack).row 78 (0, 0))) ∧ w.grownBy w' (some g) := by
  obtain ⟨xsp, xsc, xdp, xdc, xsq, xda, xth, xta, xack, xse, xre, xwr, xac, xti⟩ := x
  have CF := fun W => flag_any g 5 W
  rw [show flagO 5 = 13 from rfl] at CF
  go_enter Try.func62, Try.ntmps62
  go_upto_region 1 with fail
  refine wp_nameE _ (fun wr hwr => ?_)
  have hq : wr.heap[w.heap.size]? = some (.cells #[.int .i64 5, .string sp, .int .i64 sc, .string dp, .int .i64 dc, .int .i64 sq, .string da, .int .i64 th, .int .i64 ta, .string ack, .string ep, .int .i64 ec, .int .i64 ht] 76 (0, 0)) := by rw [hwr]; exact heap_push w _ _
  have hb1 : Below w.heap.size w wr := by rw [hwr]; exact (Below.refl _ _).alloc (Nat.le_refl _) _
  clear hwr
  have hgr := cells_of hg hb1 (row_lt hg)
  have hG := grown_one hb1 g
  have q0 := cell_heap hq 0; have q9 := cell_heap hq 9
  have p8 : wr.cell? ⟨g, 8, none⟩ = some (.string xack) := cell_heap hgr 8
  have p9 : wr.cell? ⟨g, 9, none⟩ = some (.bool xse) := cell_heap hgr 9
  have p10 : wr.cell? ⟨g, 10, none⟩ = some (.bool xre) := cell_heap hgr 10
  have p11 : wr.cell? ⟨g, 11, none⟩ = some (.bool xwr) := cell_heap hgr 11
  have p12 : wr.cell? ⟨g, 12, none⟩ = some (.bool xac) := cell_heap hgr 12
  have p13 : wr.cell? ⟨g, 13, none⟩ = some (.bool xti) := cell_heap hgr 13
  have f8 := frozen_heap hgr 8; have f13 := frozen_heap hgr 13
  cases xti
  · cases xac
    · go_wp2_with (go_at_call 94; refine (CF _).mono ?_; rintro e w1 ⟨rfl, hw1⟩; obtain rfl : _ = w1 := hw1.symm)
      go_ret
      exact ⟨rfl, fun _ => (row_put5 hgr).trans rfl, grown_set hG⟩
    · go_wp2_with (go_at_call 94; refine (CF _).mono ?_; rintro e w1 ⟨rfl, hw1⟩; obtain rfl : _ = w1 := hw1.symm)
      go_ret
      exact ⟨rfl, fun h => absurd (show (16 : Int) = 0 from h) (by decide), hG⟩
  · go_wp2_with (go_at_call 94; refine (CF _).mono ?_; rintro e w1 ⟨rfl, hw1⟩; obtain rfl : _ = w1 := hw1.symm)
    go_ret
    exact ⟨rfl, fun h => absurd (show (8 : Int) = 0 from h) (by decide), hG⟩
theorem mark_any (g : Nat) (x : Ent) (kd : Int) (sp : ByteArray) (sc : Int) (dp : ByteArray) (dc : Int) (sq : Int) (da : ByteArray) (th : Int) (ta : Int) (ack : ByteArray) (ep : ByteArray) (ec : Int) (ht : Int) (w : World) (hg : w.heap[g]? = some (.cells x.row 78 (0, 0))) (hP : hasP kd = true) :
    Calls Try.prog 62 #[.pointer (some ⟨g, 0, none⟩), .agg #[.int .i64 kd, .string sp, .int .i64 sc, .string dp, .int .i64 dc, .int .i64 sq, .string da, .int .i64 th, .int .i64 ta, .string ack, .string ep, .int .i64 ec, .int .i64 ht]] w fun e w' => e = .returned (.int .i64 (markE x kd)) ∧ (markE x kd = 0 → w'.heap[g]? = some (.cells (markR x kd ack).row 78 (0, 0))) ∧ w.grownBy w' (some g) := by
  have hk5 : 1 ≤ kd ∧ kd ≤ 5 := by
    unfold hasP at hP
    rw [Bool.and_eq_true, decide_eq_true_eq, decide_eq_true_eq] at hP
    exact hP
  rcases (show kd = 1 ∨ kd = 2 ∨ kd = 3 ∨ kd = 4 ∨ kd = 5 by omega) with rfl | rfl | rfl | rfl | rfl
  · exact mark_1 g x sp sc dp dc sq da th ta ack ep ec ht w hg
  · exact mark_2 g x sp sc dp dc sq da th ta ack ep ec ht w hg
  · exact mark_3 g x sp sc dp dc sq da th ta ack ep ec ht w hg
  · exact mark_4 g x sp sc dp dc sq da th ta ack ep ec ht w hg
  · exact mark_5 g x sp sc dp dc sq da th ta ack ep ec ht w hg
end Go.Proofs.Ytbckncopdkmoeaa
