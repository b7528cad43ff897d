/- ligref1.Own. -/
import Derived.Test.YtbckncopdkmoeaaLf8
import Derived.Test.YtbckncopdkmoeaaEv4
import Derived.Deep.MidRow
import Derived.Deep.Cut
import Derived.BigRegion
import Derived.RegionTactic
import Derived.WalkKit
import Derived.ProofKit
import Derived.Handy
import Derived.Below
import Derived.Lib.Hide
import Derived.IntWalk
import Derived.Outline
import Derived.WalkLawsBesides
import Derived.WalkSpells
namespace Go.Proofs.Ytbckncopdkmoeaa
open Go.RowKit
attribute [local go_sem] strV
set_option linter.unusedVariables false
set_option linter.unusedSimpArgs false
/-- Whose an event is, in the document's words. -/
def ownB (e : Ev) : Bool := mayEv e && !(e.kd == 7)
def ownP (e : Ev) : ByteArray := if ownB e = true then (if e.kd = 6 then e.ep else if e.kd = 2 ∨ e.kd = 3 then e.dp else e.sp) else ⟨#[]⟩
def ownC (e : Ev) : Int := if ownB e = true then (if e.kd = 6 then e.ec else if e.kd = 2 ∨ e.kd = 3 then e.dc else e.sc) else 0
def ownS (e : Ev) : Int := if ownB e = true then (if e.kd = 6 then 0 else e.sq) else 0
set_option maxRecDepth 100000 in
set_option maxHeartbeats 6400000 in
theorem refOwn_any (kd : Int) (sp : ByteArray) (sc : Int) (dp : ByteArray) (dc : Int) (sq : Int) (da : ByteArray) (th : Int) (ta : Int) (ack : ByteArray) (ep : ByteArray) (ec : Int) (ht : Int) (w : World) (h1 : sp.size ≤ maxLen) (h2 : dp.size ≤ maxLen) (h3 : ep.size ≤ maxLen) :
    Calls Try.prog 41 #[.agg #[.int .i64 kd, .string sp, .int .i64 sc, .string dp, .int .i64 dc, .int .i64 sq, .string da, .int .i64 th, .int .i64 ta, .string ack, .string ep, .int .i64 ec, .int .i64 ht]] w fun e w' => e = .returned (.tuple #[.agg #[.string (ownP ⟨kd, sp, sc, dp, dc, sq, da, th, ta, ack, ep, ec, ht⟩), .int .i64 (ownC ⟨kd, sp, sc, dp, dc, sq, da, th, ta, ack, ep, ec, ht⟩)], .int .i64 (ownS ⟨kd, sp, sc, dp, dc, sq, da, th, ta, ack, ep, ec, ht⟩), .bool (ownB ⟨kd, sp, sc, dp, dc, sq, da, th, ta, ack, ep, ec, ht⟩)]) ∧ Below w.heap.size w w' := by
  have CM := fun W => refMayEv_any kd sp sc dp dc sq da th ta ack ep ec ht W h1 h2 h3
  obtain ⟨m, hM⟩ : ∃ m, mayEv ⟨kd, sp, sc, dp, dc, sq, da, th, ta, ack, ep, ec, ht⟩ = m := ⟨_, rfl⟩
  rw [hM] at CM
  cases m
  · have hB : ownB ⟨kd, sp, sc, dp, dc, sq, da, th, ta, ack, ep, ec, ht⟩ = false := by unfold ownB; rw [hM]; rfl
    have HV : Hid ((.tuple #[.agg #[.string (ownP ⟨kd, sp, sc, dp, dc, sq, da, th, ta, ack, ep, ec, ht⟩), .int .i64 (ownC ⟨kd, sp, sc, dp, dc, sq, da, th, ta, ack, ep, ec, ht⟩)], .int .i64 (ownS ⟨kd, sp, sc, dp, dc, sq, da, th, ta, ack, ep, ec, ht⟩), .bool (ownB ⟨kd, sp, sc, dp, dc, sq, da, th, ta, ack, ep, ec, ht⟩)] : Value) = .tuple #[.agg #[.string ⟨#[]⟩, .int .i64 0], .int .i64 0, .bool false]) := Lib.hid (by unfold ownP ownC ownS; rw [hB]; rfl)
    clear hM hB
    have hg0 : ((w.alloc (.cells #[.int .i64 kd, .string sp, .int .i64 sc, .string dp, .int .i64 dc, .int .i64 sq, .string da, .int .i64 th, .int .i64 ta, .string ack, .string ep, .int .i64 ec, .int .i64 ht] 76)).alloc (.cells #[.string ⟨#[]⟩, .int .i64 0] 60)).heap[w.heap.size]? = some (.cells #[.int .i64 kd, .string sp, .int .i64 sc, .string dp, .int .i64 dc, .int .i64 sq, .string da, .int .i64 th, .int .i64 ta, .string ack, .string ep, .int .i64 ec, .int .i64 ht] 76 (0, 0)) := al2_0 w _ _
    have hr0 : ((w.alloc (.cells #[.int .i64 kd, .string sp, .int .i64 sc, .string dp, .int .i64 dc, .int .i64 sq, .string da, .int .i64 th, .int .i64 ta, .string ack, .string ep, .int .i64 ec, .int .i64 ht] 76)).alloc (.cells #[.string ⟨#[]⟩, .int .i64 0] 60)).heap[w.heap.size + 1]? = some (.cells #[.string ⟨#[]⟩, .int .i64 0] 60 (0, 0)) := al2_1 w _ _
    have hbA : Below w.heap.size w ((w.alloc (.cells #[.int .i64 kd, .string sp, .int .i64 sc, .string dp, .int .i64 dc, .int .i64 sq, .string da, .int .i64 th, .int .i64 ta, .string ack, .string ep, .int .i64 ec, .int .i64 ht] 76)).alloc (.cells #[.string ⟨#[]⟩, .int .i64 0] 60)) := al2_below w _ _
    have hsz : ((w.alloc (.cells #[.int .i64 kd, .string sp, .int .i64 sc, .string dp, .int .i64 dc, .int .i64 sq, .string da, .int .i64 th, .int .i64 ta, .string ack, .string ep, .int .i64 ec, .int .i64 ht] 76)).alloc (.cells #[.string ⟨#[]⟩, .int .i64 0] 60)).heap.size = w.heap.size + 2 := by simp
    go_enter Try.func41, Try.ntmps41
    go_upto_region 2 with (go_at_call 39; refine (CM _).mono ?_; rintro e w1 ⟨rfl, hb1⟩; rw [hsz] at hb1; have hg := cells_of hg0 hb1 (by omega); have hr := cells_of hr0 hb1 (by omega); have q0 := cell_heap hg 0; have q1 := cell_heap hg 1; have q2 := cell_heap hg 2; have q3 := cell_heap hg 3; have q4 := cell_heap hg 4; have q5 := cell_heap hg 5; have q6 := cell_heap hg 6; have q7 := cell_heap hg 7; have q8 := cell_heap hg 8; have q9 := cell_heap hg 9; have q10 := cell_heap hg 10; have q11 := cell_heap hg 11; have q12 := cell_heap hg 12)
    have k0 := cell_heap hr 0
    have k1 := cell_heap hr 1
    have f0 := frozen_heap hr 0
    have f1 := frozen_heap hr 1
    have hbel : Below w.heap.size w w1 := hbA.trans (hb1.mono (by omega))
    clear hg0 hr0 hbA hsz hb1 hg hr
    go_wp2
    obtain ⟨_, p1, p2⟩ := same2 (w := w1) (.string ⟨#[]⟩) (.int .i64 0) k0 k1
    refine bodyPost_ret (v := .tuple #[.agg #[.string ⟨#[]⟩, .int .i64 0], .int .i64 0, .bool false]) (by simp [results, Try.results41, go_sem, p1, p2]; try rfl) rfl ?_
    exact ⟨by rw [HV.out], by first | exact (((hbel.setCell (p := ⟨w.heap.size + 1, 0, none⟩) (by show _ ≤ w.heap.size + 1; omega) _).setCell (p := ⟨w.heap.size + 1, 1, none⟩) (by show _ ≤ w.heap.size + 1; omega) _).drew) | exact ((hbel.setCell (p := ⟨w.heap.size + 1, 0, none⟩) (by show _ ≤ w.heap.size + 1; omega) _).setCell (p := ⟨w.heap.size + 1, 1, none⟩) (by show _ ≤ w.heap.size + 1; omega) _)⟩
  by_cases k7 : kd = 7
  · subst k7
    have hB : ownB ⟨7, sp, sc, dp, dc, sq, da, th, ta, ack, ep, ec, ht⟩ = false := by unfold ownB; rw [hM]; rfl
    have HV : Hid ((.tuple #[.agg #[.string (ownP ⟨7, sp, sc, dp, dc, sq, da, th, ta, ack, ep, ec, ht⟩), .int .i64 (ownC ⟨7, sp, sc, dp, dc, sq, da, th, ta, ack, ep, ec, ht⟩)], .int .i64 (ownS ⟨7, sp, sc, dp, dc, sq, da, th, ta, ack, ep, ec, ht⟩), .bool (ownB ⟨7, sp, sc, dp, dc, sq, da, th, ta, ack, ep, ec, ht⟩)] : Value) = .tuple #[.agg #[.string ⟨#[]⟩, .int .i64 0], .int .i64 0, .bool false]) := Lib.hid (by unfold ownP ownC ownS; rw [hB]; rfl)
    clear hM hB
    have hg0 : ((w.alloc (.cells #[.int .i64 7, .string sp, .int .i64 sc, .string dp, .int .i64 dc, .int .i64 sq, .string da, .int .i64 th, .int .i64 ta, .string ack, .string ep, .int .i64 ec, .int .i64 ht] 76)).alloc (.cells #[.string ⟨#[]⟩, .int .i64 0] 60)).heap[w.heap.size]? = some (.cells #[.int .i64 7, .string sp, .int .i64 sc, .string dp, .int .i64 dc, .int .i64 sq, .string da, .int .i64 th, .int .i64 ta, .string ack, .string ep, .int .i64 ec, .int .i64 ht] 76 (0, 0)) := al2_0 w _ _
    have hr0 : ((w.alloc (.cells #[.int .i64 7, .string sp, .int .i64 sc, .string dp, .int .i64 dc, .int .i64 sq, .string da, .int .i64 th, .int .i64 ta, .string ack, .string ep, .int .i64 ec, .int .i64 ht] 76)).alloc (.cells #[.string ⟨#[]⟩, .int .i64 0] 60)).heap[w.heap.size + 1]? = some (.cells #[.string ⟨#[]⟩, .int .i64 0] 60 (0, 0)) := al2_1 w _ _
    have hbA : Below w.heap.size w ((w.alloc (.cells #[.int .i64 7, .string sp, .int .i64 sc, .string dp, .int .i64 dc, .int .i64 sq, .string da, .int .i64 th, .int .i64 ta, .string ack, .string ep, .int .i64 ec, .int .i64 ht] 76)).alloc (.cells #[.string ⟨#[]⟩, .int .i64 0] 60)) := al2_below w _ _
    have hsz : ((w.alloc (.cells #[.int .i64 7, .string sp, .int .i64 sc, .string dp, .int .i64 dc, .int .i64 sq, .string da, .int .i64 th, .int .i64 ta, .string ack, .string ep, .int .i64 ec, .int .i64 ht] 76)).alloc (.cells #[.string ⟨#[]⟩, .int .i64 0] 60)).heap.size = w.heap.size + 2 := by simp
    go_enter Try.func41, Try.ntmps41
    go_upto_region 2 with (go_at_call 39; refine (CM _).mono ?_; rintro e w1 ⟨rfl, hb1⟩; rw [hsz] at hb1; have hg := cells_of hg0 hb1 (by omega); have hr := cells_of hr0 hb1 (by omega); have q0 := cell_heap hg 0; have q1 := cell_heap hg 1; have q2 := cell_heap hg 2; have q3 := cell_heap hg 3; have q4 := cell_heap hg 4; have q5 := cell_heap hg 5; have q6 := cell_heap hg 6; have q7 := cell_heap hg 7; have q8 := cell_heap hg 8; have q9 := cell_heap hg 9; have q10 := cell_heap hg 10; have q11 := cell_heap hg 11; have q12 := cell_heap hg 12)
    have k0 := cell_heap hr 0
    have k1 := cell_heap hr 1
    have f0 := frozen_heap hr 0
    have f1 := frozen_heap hr 1
    have hbel : Below w.heap.size w w1 := hbA.trans (hb1.mono (by omega))
    clear hg0 hr0 hbA hsz hb1 hg hr
    go_wp2
    obtain ⟨_, p1, p2⟩ := same2 (w := w1) (.string ⟨#[]⟩) (.int .i64 0) k0 k1
    refine bodyPost_ret (v := .tuple #[.agg #[.string ⟨#[]⟩, .int .i64 0], .int .i64 0, .bool false]) (by simp [results, Try.results41, go_sem, p1, p2]; try rfl) rfl ?_
    exact ⟨by rw [HV.out], by first | exact (((hbel.setCell (p := ⟨w.heap.size + 1, 0, none⟩) (by show _ ≤ w.heap.size + 1; omega) _).setCell (p := ⟨w.heap.size + 1, 1, none⟩) (by show _ ≤ w.heap.size + 1; omega) _).drew) | exact ((hbel.setCell (p := ⟨w.heap.size + 1, 0, none⟩) (by show _ ≤ w.heap.size + 1; omega) _).setCell (p := ⟨w.heap.size + 1, 1, none⟩) (by show _ ≤ w.heap.size + 1; omega) _)⟩
  by_cases k6 : kd = 6
  · subst k6
    have hB : ownB ⟨6, sp, sc, dp, dc, sq, da, th, ta, ack, ep, ec, ht⟩ = true := by unfold ownB; rw [hM]; rfl
    have HV : Hid ((.tuple #[.agg #[.string (ownP ⟨6, sp, sc, dp, dc, sq, da, th, ta, ack, ep, ec, ht⟩), .int .i64 (ownC ⟨6, sp, sc, dp, dc, sq, da, th, ta, ack, ep, ec, ht⟩)], .int .i64 (ownS ⟨6, sp, sc, dp, dc, sq, da, th, ta, ack, ep, ec, ht⟩), .bool (ownB ⟨6, sp, sc, dp, dc, sq, da, th, ta, ack, ep, ec, ht⟩)] : Value) = .tuple #[.agg #[.string ep, .int .i64 ec], .int .i64 0, .bool true]) := Lib.hid (by unfold ownP ownC ownS; rw [hB]; rfl)
    clear hM hB
    have hg0 : ((w.alloc (.cells #[.int .i64 6, .string sp, .int .i64 sc, .string dp, .int .i64 dc, .int .i64 sq, .string da, .int .i64 th, .int .i64 ta, .string ack, .string ep, .int .i64 ec, .int .i64 ht] 76)).alloc (.cells #[.string ⟨#[]⟩, .int .i64 0] 60)).heap[w.heap.size]? = some (.cells #[.int .i64 6, .string sp, .int .i64 sc, .string dp, .int .i64 dc, .int .i64 sq, .string da, .int .i64 th, .int .i64 ta, .string ack, .string ep, .int .i64 ec, .int .i64 ht] 76 (0, 0)) := al2_0 w _ _
    have hr0 : ((w.alloc (.cells #[.int .i64 6, .string sp, .int .i64 sc, .string dp, .int .i64 dc, .int .i64 sq, .string da, .int .i64 th, .int .i64 ta, .string ack, .string ep, .int .i64 ec, .int .i64 ht] 76)).alloc (.cells #[.string ⟨#[]⟩, .int .i64 0] 60)).heap[w.heap.size + 1]? = some (.cells #[.string ⟨#[]⟩, .int .i64 0] 60 (0, 0)) := al2_1 w _ _
    have hbA : Below w.heap.size w ((w.alloc (.cells #[.int .i64 6, .string sp, .int .i64 sc, .string dp, .int .i64 dc, .int .i64 sq, .string da, .int .i64 th, .int .i64 ta, .string ack, .string ep, .int .i64 ec, .int .i64 ht] 76)).alloc (.cells #[.string ⟨#[]⟩, .int .i64 0] 60)) := al2_below w _ _
    have hsz : ((w.alloc (.cells #[.int .i64 6, .string sp, .int .i64 sc, .string dp, .int .i64 dc, .int .i64 sq, .string da, .int .i64 th, .int .i64 ta, .string ack, .string ep, .int .i64 ec, .int .i64 ht] 76)).alloc (.cells #[.string ⟨#[]⟩, .int .i64 0] 60)).heap.size = w.heap.size + 2 := by simp
    go_enter Try.func41, Try.ntmps41
    go_upto_region 5 with (go_at_call 39; refine (CM _).mono ?_; rintro e w1 ⟨rfl, hb1⟩; rw [hsz] at hb1; have hg := cells_of hg0 hb1 (by omega); have hr := cells_of hr0 hb1 (by omega); have q0 := cell_heap hg 0; have q1 := cell_heap hg 1; have q2 := cell_heap hg 2; have q3 := cell_heap hg 3; have q4 := cell_heap hg 4; have q5 := cell_heap hg 5; have q6 := cell_heap hg 6; have q7 := cell_heap hg 7; have q8 := cell_heap hg 8; have q9 := cell_heap hg 9; have q10 := cell_heap hg 10; have q11 := cell_heap hg 11; have q12 := cell_heap hg 12)
    have k0 := cell_heap hr 0
    have k1 := cell_heap hr 1
    have f0 := frozen_heap hr 0
    have f1 := frozen_heap hr 1
    have hbel : Below w.heap.size w w1 := hbA.trans (hb1.mono (by omega))
    clear hg0 hr0 hbA hsz hb1 hg hr
    go_wp2
    obtain ⟨_, p1, p2⟩ := same2 (w := w1) (.string ep) (.int .i64 ec) k0 k1
    refine bodyPost_ret (v := .tuple #[.agg #[.string ep, .int .i64 ec], .int .i64 0, .bool true]) (by simp [results, Try.results41, go_sem, p1, p2]; try rfl) rfl ?_
    exact ⟨by rw [HV.out], by first | exact (((hbel.setCell (p := ⟨w.heap.size + 1, 0, none⟩) (by show _ ≤ w.heap.size + 1; omega) _).setCell (p := ⟨w.heap.size + 1, 1, none⟩) (by show _ ≤ w.heap.size + 1; omega) _).drew) | exact ((hbel.setCell (p := ⟨w.heap.size + 1, 0, none⟩) (by show _ ≤ w.heap.size + 1; omega) _).setCell (p := ⟨w.heap.size + 1, 1, none⟩) (by show _ ≤ w.heap.size + 1; omega) _)⟩
  by_cases k2 : kd = 2
  · subst k2
    have hB : ownB ⟨2, sp, sc, dp, dc, sq, da, th, ta, ack, ep, ec, ht⟩ = true := by unfold ownB; rw [hM]; rfl
    have HV : Hid ((.tuple #[.agg #[.string (ownP ⟨2, sp, sc, dp, dc, sq, da, th, ta, ack, ep, ec, ht⟩), .int .i64 (ownC ⟨2, sp, sc, dp, dc, sq, da, th, ta, ack, ep, ec, ht⟩)], .int .i64 (ownS ⟨2, sp, sc, dp, dc, sq, da, th, ta, ack, ep, ec, ht⟩), .bool (ownB ⟨2, sp, sc, dp, dc, sq, da, th, ta, ack, ep, ec, ht⟩)] : Value) = .tuple #[.agg #[.string dp, .int .i64 dc], .int .i64 sq, .bool true]) := Lib.hid (by unfold ownP ownC ownS; rw [hB]; rfl)
    clear hM hB
    have hg0 : ((w.alloc (.cells #[.int .i64 2, .string sp, .int .i64 sc, .string dp, .int .i64 dc, .int .i64 sq, .string da, .int .i64 th, .int .i64 ta, .string ack, .string ep, .int .i64 ec, .int .i64 ht] 76)).alloc (.cells #[.string ⟨#[]⟩, .int .i64 0] 60)).heap[w.heap.size]? = some (.cells #[.int .i64 2, .string sp, .int .i64 sc, .string dp, .int .i64 dc, .int .i64 sq, .string da, .int .i64 th, .int .i64 ta, .string ack, .string ep, .int .i64 ec, .int .i64 ht] 76 (0, 0)) := al2_0 w _ _
    have hr0 : ((w.alloc (.cells #[.int .i64 2, .string sp, .int .i64 sc, .string dp, .int .i64 dc, .int .i64 sq, .string da, .int .i64 th, .int .i64 ta, .string ack, .string ep, .int .i64 ec, .int .i64 ht] 76)).alloc (.cells #[.string ⟨#[]⟩, .int .i64 0] 60)).heap[w.heap.size + 1]? = some (.cells #[.string ⟨#[]⟩, .int .i64 0] 60 (0, 0)) := al2_1 w _ _
    have hbA : Below w.heap.size w ((w.alloc (.cells #[.int .i64 2, .string sp, .int .i64 sc, .string dp, .int .i64 dc, .int .i64 sq, .string da, .int .i64 th, .int .i64 ta, .string ack, .string ep, .int .i64 ec, .int .i64 ht] 76)).alloc (.cells #[.string ⟨#[]⟩, .int .i64 0] 60)) := al2_below w _ _
    have hsz : ((w.alloc (.cells #[.int .i64 2, .string sp, .int .i64 sc, .string dp, .int .i64 dc, .int .i64 sq, .string da, .int .i64 th, .int .i64 ta, .string ack, .string ep, .int .i64 ec, .int .i64 ht] 76)).alloc (.cells #[.string ⟨#[]⟩, .int .i64 0] 60)).heap.size = w.heap.size + 2 := by simp
    go_enter Try.func41, Try.ntmps41
    go_upto_region 8 with (go_at_call 39; refine (CM _).mono ?_; rintro e w1 ⟨rfl, hb1⟩; rw [hsz] at hb1; have hg := cells_of hg0 hb1 (by omega); have hr := cells_of hr0 hb1 (by omega); have q0 := cell_heap hg 0; have q1 := cell_heap hg 1; have q2 := cell_heap hg 2; have q3 := cell_heap hg 3; have q4 := cell_heap hg 4; have q5 := cell_heap hg 5; have q6 := cell_heap hg 6; have q7 := cell_heap hg 7; have q8 := cell_heap hg 8; have q9 := cell_heap hg 9; have q10 := cell_heap hg 10; have q11 := cell_heap hg 11; have q12 := cell_heap hg 12)
    have k0 := cell_heap hr 0
    have k1 := cell_heap hr 1
    have f0 := frozen_heap hr 0
    have f1 := frozen_heap hr 1
    have hbel : Below w.heap.size w w1 := hbA.trans (hb1.mono (by omega))
    clear hg0 hr0 hbA hsz hb1 hg hr
    go_region
    all_goals
      go_wp2
      obtain ⟨_, p1, p2⟩ := same2 (w := w1) (.string dp) (.int .i64 dc) k0 k1
      refine bodyPost_ret (v := .tuple #[.agg #[.string dp, .int .i64 dc], .int .i64 sq, .bool true]) (by simp [results, Try.results41, go_sem, p1, p2]; try rfl) rfl ?_
      exact ⟨by rw [HV.out], by first | exact (((hbel.setCell (p := ⟨w.heap.size + 1, 0, none⟩) (by show _ ≤ w.heap.size + 1; omega) _).setCell (p := ⟨w.heap.size + 1, 1, none⟩) (by show _ ≤ w.heap.size + 1; omega) _).drew) | exact ((hbel.setCell (p := ⟨w.heap.size + 1, 0, none⟩) (by show _ ≤ w.heap.size + 1; omega) _).setCell (p := ⟨w.heap.size + 1, 1, none⟩) (by show _ ≤ w.heap.size + 1; omega) _)⟩
  by_cases k3 : kd = 3
  · subst k3
    have hB : ownB ⟨3, sp, sc, dp, dc, sq, da, th, ta, ack, ep, ec, ht⟩ = true := by unfold ownB; rw [hM]; rfl
    have HV : Hid ((.tuple #[.agg #[.string (ownP ⟨3, sp, sc, dp, dc, sq, da, th, ta, ack, ep, ec, ht⟩), .int .i64 (ownC ⟨3, sp, sc, dp, dc, sq, da, th, ta, ack, ep, ec, ht⟩)], .int .i64 (ownS ⟨3, sp, sc, dp, dc, sq, da, th, ta, ack, ep, ec, ht⟩), .bool (ownB ⟨3, sp, sc, dp, dc, sq, da, th, ta, ack, ep, ec, ht⟩)] : Value) = .tuple #[.agg #[.string dp, .int .i64 dc], .int .i64 sq, .bool true]) := Lib.hid (by unfold ownP ownC ownS; rw [hB]; rfl)
    clear hM hB
    have hg0 : ((w.alloc (.cells #[.int .i64 3, .string sp, .int .i64 sc, .string dp, .int .i64 dc, .int .i64 sq, .string da, .int .i64 th, .int .i64 ta, .string ack, .string ep, .int .i64 ec, .int .i64 ht] 76)).alloc (.cells #[.string ⟨#[]⟩, .int .i64 0] 60)).heap[w.heap.size]? = some (.cells #[.int .i64 3, .string sp, .int .i64 sc, .string dp, .int .i64 dc, .int .i64 sq, .string da, .int .i64 th, .int .i64 ta, .string ack, .string ep, .int .i64 ec, .int .i64 ht] 76 (0, 0)) := al2_0 w _ _
    have hr0 : ((w.alloc (.cells #[.int .i64 3, .string sp, .int .i64 sc, .string dp, .int .i64 dc, .int .i64 sq, .string da, .int .i64 th, .int .i64 ta, .string ack, .string ep, .int .i64 ec, .int .i64 ht] 76)).alloc (.cells #[.string ⟨#[]⟩, .int .i64 0] 60)).heap[w.heap.size + 1]? = some (.cells #[.string ⟨#[]⟩, .int .i64 0] 60 (0, 0)) := al2_1 w _ _
    have hbA : Below w.heap.size w ((w.alloc (.cells #[.int .i64 3, .string sp, .int .i64 sc, .string dp, .int .i64 dc, .int .i64 sq, .string da, .int .i64 th, .int .i64 ta, .string ack, .string ep, .int .i64 ec, .int .i64 ht] 76)).alloc (.cells #[.string ⟨#[]⟩, .int .i64 0] 60)) := al2_below w _ _
    have hsz : ((w.alloc (.cells #[.int .i64 3, .string sp, .int .i64 sc, .string dp, .int .i64 dc, .int .i64 sq, .string da, .int .i64 th, .int .i64 ta, .string ack, .string ep, .int .i64 ec, .int .i64 ht] 76)).alloc (.cells #[.string ⟨#[]⟩, .int .i64 0] 60)).heap.size = w.heap.size + 2 := by simp
    go_enter Try.func41, Try.ntmps41
    go_upto_region 8 with (go_at_call 39; refine (CM _).mono ?_; rintro e w1 ⟨rfl, hb1⟩; rw [hsz] at hb1; have hg := cells_of hg0 hb1 (by omega); have hr := cells_of hr0 hb1 (by omega); have q0 := cell_heap hg 0; have q1 := cell_heap hg 1; have q2 := cell_heap hg 2; have q3 := cell_heap hg 3; have q4 := cell_heap hg 4; have q5 := cell_heap hg 5; have q6 := cell_heap hg 6; have q7 := cell_heap hg 7; have q8 := cell_heap hg 8; have q9 := cell_heap hg 9; have q10 := cell_heap hg 10; have q11 := cell_heap hg 11; have q12 := cell_heap hg 12)
    have k0 := cell_heap hr 0
    have k1 := cell_heap hr 1
    have f0 := frozen_heap hr 0
    have f1 := frozen_heap hr 1
    have hbel : Below w.heap.size w w1 := hbA.trans (hb1.mono (by omega))
    clear hg0 hr0 hbA hsz hb1 hg hr
    go_region
    all_goals
      go_wp2
      obtain ⟨_, p1, p2⟩ := same2 (w := w1) (.string dp) (.int .i64 dc) k0 k1
      refine bodyPost_ret (v := .tuple #[.agg #[.string dp, .int .i64 dc], .int .i64 sq, .bool true]) (by simp [results, Try.results41, go_sem, p1, p2]; try rfl) rfl ?_
      exact ⟨by rw [HV.out], by first | exact (((hbel.setCell (p := ⟨w.heap.size + 1, 0, none⟩) (by show _ ≤ w.heap.size + 1; omega) _).setCell (p := ⟨w.heap.size + 1, 1, none⟩) (by show _ ≤ w.heap.size + 1; omega) _).drew) | exact ((hbel.setCell (p := ⟨w.heap.size + 1, 0, none⟩) (by show _ ≤ w.heap.size + 1; omega) _).setCell (p := ⟨w.heap.size + 1, 1, none⟩) (by show _ ≤ w.heap.size + 1; omega) _)⟩
  have e7 : (kd == 7) = false := beq_eq_false_iff_ne.2 k7
  have e6 : (kd == 6) = false := beq_eq_false_iff_ne.2 k6
  have e2 : (kd == 2) = false := beq_eq_false_iff_ne.2 k2
  have e3 : (kd == 3) = false := beq_eq_false_iff_ne.2 k3
  have hB : ownB ⟨kd, sp, sc, dp, dc, sq, da, th, ta, ack, ep, ec, ht⟩ = true := by unfold ownB; rw [hM]; simp only [e7]; rfl
  have HV : Hid ((.tuple #[.agg #[.string (ownP ⟨kd, sp, sc, dp, dc, sq, da, th, ta, ack, ep, ec, ht⟩), .int .i64 (ownC ⟨kd, sp, sc, dp, dc, sq, da, th, ta, ack, ep, ec, ht⟩)], .int .i64 (ownS ⟨kd, sp, sc, dp, dc, sq, da, th, ta, ack, ep, ec, ht⟩), .bool (ownB ⟨kd, sp, sc, dp, dc, sq, da, th, ta, ack, ep, ec, ht⟩)] : Value) = .tuple #[.agg #[.string sp, .int .i64 sc], .int .i64 sq, .bool true]) := Lib.hid (by unfold ownP ownC ownS; rw [hB]; simp [k6, k2, k3])
  clear hM hB k7 k6 k2 k3
  have hg0 : ((w.alloc (.cells #[.int .i64 kd, .string sp, .int .i64 sc, .string dp, .int .i64 dc, .int .i64 sq, .string da, .int .i64 th, .int .i64 ta, .string ack, .string ep, .int .i64 ec, .int .i64 ht] 76)).alloc (.cells #[.string ⟨#[]⟩, .int .i64 0] 60)).heap[w.heap.size]? = some (.cells #[.int .i64 kd, .string sp, .int .i64 sc, .string dp, .int .i64 dc, .int .i64 sq, .string da, .int .i64 th, .int .i64 ta, .string ack, .string ep, .int .i64 ec, .int .i64 ht] 76 (0, 0)) := al2_0 w _ _
  have hr0 : ((w.alloc (.cells #[.int .i64 kd, .string sp, .int .i64 sc, .string dp, .int .i64 dc, .int .i64 sq, .string da, .int .i64 th, .int .i64 ta, .string ack, .string ep, .int .i64 ec, .int .i64 ht] 76)).alloc (.cells #[.string ⟨#[]⟩, .int .i64 0] 60)).heap[w.heap.size + 1]? = some (.cells #[.string ⟨#[]⟩, .int .i64 0] 60 (0, 0)) := al2_1 w _ _
  have hbA : Below w.heap.size w ((w.alloc (.cells #[.int .i64 kd, .string sp, .int .i64 sc, .string dp, .int .i64 dc, .int .i64 sq, .string da, .int .i64 th, .int .i64 ta, .string ack, .string ep, .int .i64 ec, .int .i64 ht] 76)).alloc (.cells #[.string ⟨#[]⟩, .int .i64 0] 60)) := al2_below w _ _
  have hsz : ((w.alloc (.cells #[.int .i64 kd, .string sp, .int .i64 sc, .string dp, .int .i64 dc, .int .i64 sq, .string da, .int .i64 th, .int .i64 ta, .string ack, .string ep, .int .i64 ec, .int .i64 ht] 76)).alloc (.cells #[.string ⟨#[]⟩, .int .i64 0] 60)).heap.size = w.heap.size + 2 := by simp
  go_enter Try.func41, Try.ntmps41
  go_upto_region 9 with (go_at_call 39; refine (CM _).mono ?_; rintro e w1 ⟨rfl, hb1⟩; rw [hsz] at hb1; have hg := cells_of hg0 hb1 (by omega); have hr := cells_of hr0 hb1 (by omega); have q0 := cell_heap hg 0; have q1 := cell_heap hg 1; have q2 := cell_heap hg 2; have q3 := cell_heap hg 3; have q4 := cell_heap hg 4; have q5 := cell_heap hg 5; have q6 := cell_heap hg 6; have q7 := cell_heap hg 7; have q8 := cell_heap hg 8; have q9 := cell_heap hg 9; have q10 := cell_heap hg 10; have q11 := cell_heap hg 11; have q12 := cell_heap hg 12)
  have k0 := cell_heap hr 0
  have k1 := cell_heap hr 1
  have f0 := frozen_heap hr 0
  have f1 := frozen_heap hr 1
  have hbel : Below w.heap.size w w1 := hbA.trans (hb1.mono (by omega))
  clear hg0 hr0 hbA hsz hb1 hg hr
  go_region
  all_goals
    go_wp2
    obtain ⟨_, p1, p2⟩ := same2 (w := w1) (.string sp) (.int .i64 sc) k0 k1
    refine bodyPost_ret (v := .tuple #[.agg #[.string sp, .int .i64 sc], .int .i64 sq, .bool true]) (by simp [results, Try.results41, go_sem, p1, p2]; try rfl) rfl ?_
    exact ⟨by rw [HV.out], by first | exact (((hbel.setCell (p := ⟨w.heap.size + 1, 0, none⟩) (by show _ ≤ w.heap.size + 1; omega) _).setCell (p := ⟨w.heap.size + 1, 1, none⟩) (by show _ ≤ w.heap.size + 1; omega) _).drew) | exact ((hbel.setCell (p := ⟨w.heap.size + 1, 0, none⟩) (by show _ ≤ w.heap.size + 1; omega) _).setCell (p := ⟨w.heap.size + 1, 1, none⟩) (by show _ ≤ w.heap.size + 1; omega) _)⟩
end Go.Proofs.Ytbckncopdkmoeaa
