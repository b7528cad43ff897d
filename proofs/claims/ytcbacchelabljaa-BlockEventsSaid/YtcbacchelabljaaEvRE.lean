/- Events out of bytes: read. -/
import Derived.Test.YtcbacchelabljaaEvRP
import Derived.Test.YtcbacchelabljaaEvP
import Derived.Deep.MidRow
import Derived.Deep.Cut
import Derived.WalkKit
import Derived.ProofKit
import Derived.Handy
import Derived.Below
import Derived.BigQuiet
import Derived.Lib.Hide
import Derived.IntWalk
import Derived.Outline
import Derived.WalkLawsBesides
import Derived.WalkSpells
namespace Go.Proofs.Ytcbacchelabljaa
open Go.RowKit
attribute [local go_sem] strV
set_option linter.unusedVariables false
/-- What reading an event answers, the place behind it, the error. -/
def evG (s : ByteArray) (at_ err : Int) : Ev × Int × Int :=
  let x := numG s at_ err 1 7
  if x.1 = 3 then (let p := pkG s x.2.1 x.2.2; let t := textG s p.a p.e 32; (⟨3, p.sp, p.sc, p.dp, p.dc, p.sq, p.da, p.th, p.ta, t.1, ⟨#[]⟩, 0, 0⟩, t.2.1, t.2.2))
  else if x.1 = 6 then (let q := endG s x.2.1 x.2.2; (⟨6, ⟨#[]⟩, 0, ⟨#[]⟩, 0, 0, ⟨#[]⟩, 0, 0, ⟨#[]⟩, q.1, q.2.1, 0⟩, q.2.2.1, q.2.2.2))
  else if x.1 = 7 then (let h := numG s x.2.1 x.2.2 1 1099511627776; (⟨7, ⟨#[]⟩, 0, ⟨#[]⟩, 0, 0, ⟨#[]⟩, 0, 0, ⟨#[]⟩, ⟨#[]⟩, 0, h.1⟩, h.2.1, h.2.2))
  else if hasP x.1 = true then (let p := pkG s x.2.1 x.2.2; (⟨x.1, p.sp, p.sc, p.dp, p.dc, p.sq, p.da, p.th, p.ta, ⟨#[]⟩, ⟨#[]⟩, 0, 0⟩, p.a, p.e))
  else (⟨x.1, ⟨#[]⟩, 0, ⟨#[]⟩, 0, 0, ⟨#[]⟩, 0, 0, ⟨#[]⟩, ⟨#[]⟩, 0, 0⟩, x.2.1, x.2.2)
set_option maxRecDepth 100000 in
set_option maxHeartbeats 6400000 in
theorem evRead_any (b : Nat) (w : World) (s : ByteArray) (at_ err : Int) (h : RAt b w s at_ err) (hs : s.size ≤ 1000000000) :
    Calls Try.prog 69 #[.pointer (some ⟨b, 0, none⟩)] w fun e w' => e = .returned (.agg (evG s at_ err).1.row) ∧ RAt b w' s (evG s at_ err).2.1 (evG s at_ err).2.2 ∧ Kept b w w' := by
  obtain ⟨⟨kd, a0, e0⟩, g0⟩ : ∃ t, numG s at_ err 1 7 = t := ⟨_, rfl⟩
  have C0 := fun W h => rnum_all b W s at_ err 1 7 h hs
  simp only [g0] at C0
  have CH := fun W => hasP_any kd W
  have hlt := h.lt
  have hz0 : ((w.alloc (.cells #[.int .i64 0, .string ⟨#[]⟩, .int .i64 0, .string ⟨#[]⟩, .int .i64 0, .int .i64 0, .string ⟨#[]⟩, .int .i64 0, .int .i64 0, .string ⟨#[]⟩, .string ⟨#[]⟩, .int .i64 0, .int .i64 0] 43)).alloc (.cells #[.int .i64 0, .string ⟨#[]⟩, .int .i64 0, .string ⟨#[]⟩, .int .i64 0, .int .i64 0, .string ⟨#[]⟩, .int .i64 0, .int .i64 0, .string ⟨#[]⟩, .string ⟨#[]⟩, .int .i64 0, .int .i64 0] 43)).heap[w.heap.size]? = some (.cells #[.int .i64 0, .string ⟨#[]⟩, .int .i64 0, .string ⟨#[]⟩, .int .i64 0, .int .i64 0, .string ⟨#[]⟩, .int .i64 0, .int .i64 0, .string ⟨#[]⟩, .string ⟨#[]⟩, .int .i64 0, .int .i64 0] 43 (0, 0)) := by
    show ((w.heap.push _).push _)[w.heap.size]? = _
    rw [Array.getElem?_push_lt (by simp), ← Array.getElem?_eq_getElem (by simp), Array.getElem?_push_size]
  have hg0 : ((w.alloc (.cells #[.int .i64 0, .string ⟨#[]⟩, .int .i64 0, .string ⟨#[]⟩, .int .i64 0, .int .i64 0, .string ⟨#[]⟩, .int .i64 0, .int .i64 0, .string ⟨#[]⟩, .string ⟨#[]⟩, .int .i64 0, .int .i64 0] 43)).alloc (.cells #[.int .i64 0, .string ⟨#[]⟩, .int .i64 0, .string ⟨#[]⟩, .int .i64 0, .int .i64 0, .string ⟨#[]⟩, .int .i64 0, .int .i64 0, .string ⟨#[]⟩, .string ⟨#[]⟩, .int .i64 0, .int .i64 0] 43)).heap[w.heap.size + 1]? = some (.cells #[.int .i64 0, .string ⟨#[]⟩, .int .i64 0, .string ⟨#[]⟩, .int .i64 0, .int .i64 0, .string ⟨#[]⟩, .int .i64 0, .int .i64 0, .string ⟨#[]⟩, .string ⟨#[]⟩, .int .i64 0, .int .i64 0] 43 (0, 0)) := by
    show ((w.heap.push _).push _)[w.heap.size + 1]? = _
    rw [show w.heap.size + 1 = (w.heap.push (Obj.cells #[.int .i64 0, .string ⟨#[]⟩, .int .i64 0, .string ⟨#[]⟩, .int .i64 0, .int .i64 0, .string ⟨#[]⟩, .int .i64 0, .int .i64 0, .string ⟨#[]⟩, .string ⟨#[]⟩, .int .i64 0, .int .i64 0] 43 (0, 0))).size by simp, Array.getElem?_push_size]
  have hbA : Below w.heap.size w ((w.alloc (.cells #[.int .i64 0, .string ⟨#[]⟩, .int .i64 0, .string ⟨#[]⟩, .int .i64 0, .int .i64 0, .string ⟨#[]⟩, .int .i64 0, .int .i64 0, .string ⟨#[]⟩, .string ⟨#[]⟩, .int .i64 0, .int .i64 0] 43)).alloc (.cells #[.int .i64 0, .string ⟨#[]⟩, .int .i64 0, .string ⟨#[]⟩, .int .i64 0, .int .i64 0, .string ⟨#[]⟩, .int .i64 0, .int .i64 0, .string ⟨#[]⟩, .string ⟨#[]⟩, .int .i64 0, .int .i64 0] 43)) := Below.alloc (Below.alloc (Below.refl _ _) (Nat.le_refl _) _) (by simp) _
  have hzb : w.heap.size ≠ b := by omega
  have hgb : w.heap.size + 1 ≠ b := by omega
  have hgz : w.heap.size + 1 ≠ w.heap.size := by omega
  by_cases k3 : kd = 3
  · subst k3
    rw [show hasP 3 = true from rfl] at CH
    obtain ⟨⟨sp, sc, dp, dc, sq, da, th, ta, a1, e1⟩, g1⟩ : ∃ t, pkG s a0 e0 = t := ⟨_, rfl⟩
    have CP := fun W h => pkRead_any b W s a0 e0 h hs
    simp only [g1] at CP
    obtain ⟨⟨ack, a2, e2⟩, g2⟩ : ∃ t, textG s a1 e1 32 = t := ⟨_, rfl⟩
    have CT := fun W h => rtext_all b W s a1 e1 32 h hs
    simp only [g2] at CT
    have hE : evG s at_ err = (⟨3, sp, sc, dp, dc, sq, da, th, ta, ack, ⟨#[]⟩, 0, 0⟩, a2, e2) := by
      unfold evG
      simp only [g0, g1, g2]
      rfl
    rw [hE]
    clear hE g0 g1 g2
    go_enter Try.func69, Try.ntmps69
    go_upto_region 2 with fail
    refine wp_nameE _ (fun W2 hW => ?_)
    have hZ := hz0
    have hG := hg0
    rw [← hW] at hZ hG
    have hb1 : Below w.heap.size w W2 := by rw [hW]; exact hbA
    have hR := h.below hb1 hlt
    have hK : Kept b w W2 := Kept.of hb1
    clear hW hz0 hg0 hbA hb1 h
    go_upto_region 3 with (go_at_call 31; refine (C0 _ hR).mono ?_; rintro e w1 ⟨rfl, hR, hk⟩; have hG := hk.row5 hG hgb; have hZ := hk.row5 hZ hzb; have hK := hK.trans hk; have qk0 := cell_heap hG 0; have fk0 := frozen_heap hG 0)
    refine wp_nameE _ (fun W3 hW => ?_)
    have hR : RAt b W3 s a0 e0 := by rw [hW]; exact (hR.put hgb _)
    have hG : W3.heap[w.heap.size + 1]? = some (.cells #[.int .i64 3, .string ⟨#[]⟩, .int .i64 0, .string ⟨#[]⟩, .int .i64 0, .int .i64 0, .string ⟨#[]⟩, .int .i64 0, .int .i64 0, .string ⟨#[]⟩, .string ⟨#[]⟩, .int .i64 0, .int .i64 0] 43 (0, 0)) := by rw [hW]; exact (row_put5 hG)
    have hZ : W3.heap[w.heap.size]? = some (.cells #[.int .i64 0, .string ⟨#[]⟩, .int .i64 0, .string ⟨#[]⟩, .int .i64 0, .int .i64 0, .string ⟨#[]⟩, .int .i64 0, .int .i64 0, .string ⟨#[]⟩, .string ⟨#[]⟩, .int .i64 0, .int .i64 0] 43 (0, 0)) := by rw [hW]; exact (row_oth hZ hgz)
    have hK : Kept b w W3 := by rw [hW]; exact (hK.setFar (Nat.le_succ _))
    clear hW qk0 fk0
    have q0 := cell_heap hG 0
    go_upto_region 5 with (first | (go_at_call 51; refine (CH _).mono ?_; rintro e wx ⟨rfl, hwx⟩; obtain rfl : _ = wx := hwx.symm) | (go_at_call 72; refine (CP _ hR).mono ?_; rintro e w1 ⟨rfl, hR, hk⟩; have hG := hk.row5 hG hgb; have hZ := hk.row5 hZ hzb; have hK := hK.trans hk; have qk1 := cell_heap hG 1; have fk1 := frozen_heap hG 1; have qk2 := cell_heap hG 2; have fk2 := frozen_heap hG 2; have qk3 := cell_heap hG 3; have fk3 := frozen_heap hG 3; have qk4 := cell_heap hG 4; have fk4 := frozen_heap hG 4; have qk5 := cell_heap hG 5; have fk5 := frozen_heap hG 5; have qk6 := cell_heap hG 6; have fk6 := frozen_heap hG 6; have qk7 := cell_heap hG 7; have fk7 := frozen_heap hG 7; have qk8 := cell_heap hG 8; have fk8 := frozen_heap hG 8))
    refine wp_nameE _ (fun W5 hW => ?_)
    have hR : RAt b W5 s a1 e1 := by rw [hW]; exact ((((((((hR.put hgb _).put hgb _).put hgb _).put hgb _).put hgb _).put hgb _).put hgb _).put hgb _)
    have hG : W5.heap[w.heap.size + 1]? = some (.cells #[.int .i64 3, .string sp, .int .i64 sc, .string dp, .int .i64 dc, .int .i64 sq, .string da, .int .i64 th, .int .i64 ta, .string ⟨#[]⟩, .string ⟨#[]⟩, .int .i64 0, .int .i64 0] 43 (0, 0)) := by rw [hW]; exact (row_put5 (row_put5 (row_put5 (row_put5 (row_put5 (row_put5 (row_put5 (row_put5 hG))))))))
    have hZ : W5.heap[w.heap.size]? = some (.cells #[.int .i64 0, .string ⟨#[]⟩, .int .i64 0, .string ⟨#[]⟩, .int .i64 0, .int .i64 0, .string ⟨#[]⟩, .int .i64 0, .int .i64 0, .string ⟨#[]⟩, .string ⟨#[]⟩, .int .i64 0, .int .i64 0] 43 (0, 0)) := by rw [hW]; exact (row_oth (row_oth (row_oth (row_oth (row_oth (row_oth (row_oth (row_oth hZ hgz) hgz) hgz) hgz) hgz) hgz) hgz) hgz)
    have hK : Kept b w W5 := by rw [hW]; exact ((((((((hK.setFar (Nat.le_succ _)).setFar (Nat.le_succ _)).setFar (Nat.le_succ _)).setFar (Nat.le_succ _)).setFar (Nat.le_succ _)).setFar (Nat.le_succ _)).setFar (Nat.le_succ _)).setFar (Nat.le_succ _))
    clear hW qk1 fk1 qk2 fk2 qk3 fk3 qk4 fk4 qk5 fk5 qk6 fk6 qk7 fk7 qk8 fk8
    have q0 := cell_heap hG 0
    go_upto_region 13 with (go_at_call 55; refine (CT _ hR).mono ?_; rintro e w1 ⟨rfl, hR, hk⟩; have hG := hk.row5 hG hgb; have hZ := hk.row5 hZ hzb; have hK := hK.trans hk; have qk9 := cell_heap hG 9; have fk9 := frozen_heap hG 9)
    refine wp_nameE _ (fun W13 hW => ?_)
    have hR : RAt b W13 s a2 e2 := by rw [hW]; exact (hR.put hgb _)
    have hG : W13.heap[w.heap.size + 1]? = some (.cells #[.int .i64 3, .string sp, .int .i64 sc, .string dp, .int .i64 dc, .int .i64 sq, .string da, .int .i64 th, .int .i64 ta, .string ack, .string ⟨#[]⟩, .int .i64 0, .int .i64 0] 43 (0, 0)) := by rw [hW]; exact (row_put5 hG)
    have hZ : W13.heap[w.heap.size]? = some (.cells #[.int .i64 0, .string ⟨#[]⟩, .int .i64 0, .string ⟨#[]⟩, .int .i64 0, .int .i64 0, .string ⟨#[]⟩, .int .i64 0, .int .i64 0, .string ⟨#[]⟩, .string ⟨#[]⟩, .int .i64 0, .int .i64 0] 43 (0, 0)) := by rw [hW]; exact (row_oth hZ hgz)
    have hK : Kept b w W13 := by rw [hW]; exact (hK.setFar (Nat.le_succ _))
    clear hW qk9 fk9
    have q0 := cell_heap hG 0
    have q1 := cell_heap hG 1
    have q2 := cell_heap hG 2
    have q3 := cell_heap hG 3
    have q4 := cell_heap hG 4
    have q5 := cell_heap hG 5
    have q6 := cell_heap hG 6
    have q7 := cell_heap hG 7
    have q8 := cell_heap hG 8
    have q9 := cell_heap hG 9
    have q10 := cell_heap hG 10
    have q11 := cell_heap hG 11
    have q12 := cell_heap hG 12
    go_wp2_with (refine wpList_storeRowTo rfl (.tmp 2) (.tmp 35) 43 rfl (by kernel_rfl) rfl rfl hZ rfl (Ev.row_one _ _ _ _ _ _ _ _ _ _ _ _ _ ) ?_)
    have hZ2 : (World.setRow _ w.heap.size #[.int .i64 3, .string sp, .int .i64 sc, .string dp, .int .i64 dc, .int .i64 sq, .string da, .int .i64 th, .int .i64 ta, .string ack, .string ⟨#[]⟩, .int .i64 0, .int .i64 0]).heap[w.heap.size]? = some (.cells #[.int .i64 3, .string sp, .int .i64 sc, .string dp, .int .i64 dc, .int .i64 sq, .string da, .int .i64 th, .int .i64 ta, .string ack, .string ⟨#[]⟩, .int .i64 0, .int .i64 0] 43 (0, 0)) := setRow_heap _ _ _ _ _ _ hZ
    have hrd := run_loadVar_mid (P := Try.prog) _ w.heap.size 0 43 (#[.int .i64 3, .string sp, .int .i64 sc, .string dp, .int .i64 dc, .int .i64 sq, .string da, .int .i64 th, .int .i64 ta, .string ack, .string ⟨#[]⟩, .int .i64 0, .int .i64 0] : Array Value).toList _ (rangeAt_row5 hZ2) Try.underlying43 rfl (by kernel_rfl)
    refine bodyPost_ret (v := .agg #[.int .i64 3, .string sp, .int .i64 sc, .string dp, .int .i64 dc, .int .i64 sq, .string da, .int .i64 th, .int .i64 ta, .string ack, .string ⟨#[]⟩, .int .i64 0, .int .i64 0]) ?_ rfl ?_
    · simp [results, Try.results69, asAddr]
      exact hrd
    exact ⟨rfl, hR.setRow hzb _, hK.setRow (Nat.le_refl _) _⟩
  by_cases k6 : kd = 6
  · subst k6
    rw [show hasP 6 = false from rfl] at CH
    obtain ⟨⟨ep, a1, e1⟩, g1⟩ : ∃ t, textG s a0 e0 12 = t := ⟨_, rfl⟩
    obtain ⟨⟨ec, a2, e2⟩, g2⟩ : ∃ t, numG s a1 e1 0 999 = t := ⟨_, rfl⟩
    have CT := fun W h => rtext_all b W s a0 e0 12 h hs
    have CN := fun W h => rnum_all b W s a1 e1 0 999 h hs
    simp only [g1] at CT
    simp only [g2] at CN
    have hE : evG s at_ err = (⟨6, ⟨#[]⟩, 0, ⟨#[]⟩, 0, 0, ⟨#[]⟩, 0, 0, ⟨#[]⟩, ep, ec, 0⟩, a2, e2) := by
      unfold evG
      simp only [g0, endG, g1, g2]
      rfl
    rw [hE]
    clear hE g0 g1 g2
    go_enter Try.func69, Try.ntmps69
    go_upto_region 2 with fail
    refine wp_nameE _ (fun W2 hW => ?_)
    have hZ := hz0
    have hG := hg0
    rw [← hW] at hZ hG
    have hb1 : Below w.heap.size w W2 := by rw [hW]; exact hbA
    have hR := h.below hb1 hlt
    have hK : Kept b w W2 := Kept.of hb1
    clear hW hz0 hg0 hbA hb1 h
    go_upto_region 3 with (go_at_call 31; refine (C0 _ hR).mono ?_; rintro e w1 ⟨rfl, hR, hk⟩; have hG := hk.row5 hG hgb; have hZ := hk.row5 hZ hzb; have hK := hK.trans hk; have qk0 := cell_heap hG 0; have fk0 := frozen_heap hG 0)
    refine wp_nameE _ (fun W3 hW => ?_)
    have hR : RAt b W3 s a0 e0 := by rw [hW]; exact (hR.put hgb _)
    have hG : W3.heap[w.heap.size + 1]? = some (.cells #[.int .i64 6, .string ⟨#[]⟩, .int .i64 0, .string ⟨#[]⟩, .int .i64 0, .int .i64 0, .string ⟨#[]⟩, .int .i64 0, .int .i64 0, .string ⟨#[]⟩, .string ⟨#[]⟩, .int .i64 0, .int .i64 0] 43 (0, 0)) := by rw [hW]; exact (row_put5 hG)
    have hZ : W3.heap[w.heap.size]? = some (.cells #[.int .i64 0, .string ⟨#[]⟩, .int .i64 0, .string ⟨#[]⟩, .int .i64 0, .int .i64 0, .string ⟨#[]⟩, .int .i64 0, .int .i64 0, .string ⟨#[]⟩, .string ⟨#[]⟩, .int .i64 0, .int .i64 0] 43 (0, 0)) := by rw [hW]; exact (row_oth hZ hgz)
    have hK : Kept b w W3 := by rw [hW]; exact (hK.setFar (Nat.le_succ _))
    clear hW qk0 fk0
    have q0 := cell_heap hG 0
    go_upto_region 10 with (first | (go_at_call 51; refine (CH _).mono ?_; rintro e wx ⟨rfl, hwx⟩; obtain rfl : _ = wx := hwx.symm) | (go_at_call 55; refine (CT _ hR).mono ?_; rintro e w1 ⟨rfl, hR, hk⟩; have hG := hk.row5 hG hgb; have hZ := hk.row5 hZ hzb; have hK := hK.trans hk; have qk10 := cell_heap hG 10; have fk10 := frozen_heap hG 10))
    refine wp_nameE _ (fun W10 hW => ?_)
    have hR : RAt b W10 s a1 e1 := by rw [hW]; exact (hR.put hgb _)
    have hG : W10.heap[w.heap.size + 1]? = some (.cells #[.int .i64 6, .string ⟨#[]⟩, .int .i64 0, .string ⟨#[]⟩, .int .i64 0, .int .i64 0, .string ⟨#[]⟩, .int .i64 0, .int .i64 0, .string ⟨#[]⟩, .string ep, .int .i64 0, .int .i64 0] 43 (0, 0)) := by rw [hW]; exact (row_put5 hG)
    have hZ : W10.heap[w.heap.size]? = some (.cells #[.int .i64 0, .string ⟨#[]⟩, .int .i64 0, .string ⟨#[]⟩, .int .i64 0, .int .i64 0, .string ⟨#[]⟩, .int .i64 0, .int .i64 0, .string ⟨#[]⟩, .string ⟨#[]⟩, .int .i64 0, .int .i64 0] 43 (0, 0)) := by rw [hW]; exact (row_oth hZ hgz)
    have hK : Kept b w W10 := by rw [hW]; exact (hK.setFar (Nat.le_succ _))
    clear hW qk10 fk10
    go_upto_region 13 with (go_at_call 31; refine (CN _ hR).mono ?_; rintro e w1 ⟨rfl, hR, hk⟩; have hG := hk.row5 hG hgb; have hZ := hk.row5 hZ hzb; have hK := hK.trans hk; have qk11 := cell_heap hG 11; have fk11 := frozen_heap hG 11)
    refine wp_nameE _ (fun W13 hW => ?_)
    have hR : RAt b W13 s a2 e2 := by rw [hW]; exact (hR.put hgb _)
    have hG : W13.heap[w.heap.size + 1]? = some (.cells #[.int .i64 6, .string ⟨#[]⟩, .int .i64 0, .string ⟨#[]⟩, .int .i64 0, .int .i64 0, .string ⟨#[]⟩, .int .i64 0, .int .i64 0, .string ⟨#[]⟩, .string ep, .int .i64 ec, .int .i64 0] 43 (0, 0)) := by rw [hW]; exact (row_put5 hG)
    have hZ : W13.heap[w.heap.size]? = some (.cells #[.int .i64 0, .string ⟨#[]⟩, .int .i64 0, .string ⟨#[]⟩, .int .i64 0, .int .i64 0, .string ⟨#[]⟩, .int .i64 0, .int .i64 0, .string ⟨#[]⟩, .string ⟨#[]⟩, .int .i64 0, .int .i64 0] 43 (0, 0)) := by rw [hW]; exact (row_oth hZ hgz)
    have hK : Kept b w W13 := by rw [hW]; exact (hK.setFar (Nat.le_succ _))
    clear hW qk11 fk11
    have q0 := cell_heap hG 0
    have q1 := cell_heap hG 1
    have q2 := cell_heap hG 2
    have q3 := cell_heap hG 3
    have q4 := cell_heap hG 4
    have q5 := cell_heap hG 5
    have q6 := cell_heap hG 6
    have q7 := cell_heap hG 7
    have q8 := cell_heap hG 8
    have q9 := cell_heap hG 9
    have q10 := cell_heap hG 10
    have q11 := cell_heap hG 11
    have q12 := cell_heap hG 12
    go_wp2_with (refine wpList_storeRowTo rfl (.tmp 2) (.tmp 35) 43 rfl (by kernel_rfl) rfl rfl hZ rfl (Ev.row_one _ _ _ _ _ _ _ _ _ _ _ _ _ ) ?_)
    have hZ2 : (World.setRow _ w.heap.size #[.int .i64 6, .string ⟨#[]⟩, .int .i64 0, .string ⟨#[]⟩, .int .i64 0, .int .i64 0, .string ⟨#[]⟩, .int .i64 0, .int .i64 0, .string ⟨#[]⟩, .string ep, .int .i64 ec, .int .i64 0]).heap[w.heap.size]? = some (.cells #[.int .i64 6, .string ⟨#[]⟩, .int .i64 0, .string ⟨#[]⟩, .int .i64 0, .int .i64 0, .string ⟨#[]⟩, .int .i64 0, .int .i64 0, .string ⟨#[]⟩, .string ep, .int .i64 ec, .int .i64 0] 43 (0, 0)) := setRow_heap _ _ _ _ _ _ hZ
    have hrd := run_loadVar_mid (P := Try.prog) _ w.heap.size 0 43 (#[.int .i64 6, .string ⟨#[]⟩, .int .i64 0, .string ⟨#[]⟩, .int .i64 0, .int .i64 0, .string ⟨#[]⟩, .int .i64 0, .int .i64 0, .string ⟨#[]⟩, .string ep, .int .i64 ec, .int .i64 0] : Array Value).toList _ (rangeAt_row5 hZ2) Try.underlying43 rfl (by kernel_rfl)
    refine bodyPost_ret (v := .agg #[.int .i64 6, .string ⟨#[]⟩, .int .i64 0, .string ⟨#[]⟩, .int .i64 0, .int .i64 0, .string ⟨#[]⟩, .int .i64 0, .int .i64 0, .string ⟨#[]⟩, .string ep, .int .i64 ec, .int .i64 0]) ?_ rfl ?_
    · simp [results, Try.results69, asAddr]
      exact hrd
    exact ⟨rfl, hR.setRow hzb _, hK.setRow (Nat.le_refl _) _⟩
  by_cases k7 : kd = 7
  · subst k7
    rw [show hasP 7 = false from rfl] at CH
    obtain ⟨⟨ht, a2, e2⟩, g2⟩ : ∃ t, numG s a0 e0 1 1099511627776 = t := ⟨_, rfl⟩
    have CN := fun W h => rnum_all b W s a0 e0 1 1099511627776 h hs
    simp only [g2] at CN
    have hE : evG s at_ err = (⟨7, ⟨#[]⟩, 0, ⟨#[]⟩, 0, 0, ⟨#[]⟩, 0, 0, ⟨#[]⟩, ⟨#[]⟩, 0, ht⟩, a2, e2) := by
      unfold evG
      simp only [g0, g2]
      rfl
    rw [hE]
    clear hE g0 g2
    go_enter Try.func69, Try.ntmps69
    go_upto_region 2 with fail
    refine wp_nameE _ (fun W2 hW => ?_)
    have hZ := hz0
    have hG := hg0
    rw [← hW] at hZ hG
    have hb1 : Below w.heap.size w W2 := by rw [hW]; exact hbA
    have hR := h.below hb1 hlt
    have hK : Kept b w W2 := Kept.of hb1
    clear hW hz0 hg0 hbA hb1 h
    go_upto_region 3 with (go_at_call 31; refine (C0 _ hR).mono ?_; rintro e w1 ⟨rfl, hR, hk⟩; have hG := hk.row5 hG hgb; have hZ := hk.row5 hZ hzb; have hK := hK.trans hk; have qk0 := cell_heap hG 0; have fk0 := frozen_heap hG 0)
    refine wp_nameE _ (fun W3 hW => ?_)
    have hR : RAt b W3 s a0 e0 := by rw [hW]; exact (hR.put hgb _)
    have hG : W3.heap[w.heap.size + 1]? = some (.cells #[.int .i64 7, .string ⟨#[]⟩, .int .i64 0, .string ⟨#[]⟩, .int .i64 0, .int .i64 0, .string ⟨#[]⟩, .int .i64 0, .int .i64 0, .string ⟨#[]⟩, .string ⟨#[]⟩, .int .i64 0, .int .i64 0] 43 (0, 0)) := by rw [hW]; exact (row_put5 hG)
    have hZ : W3.heap[w.heap.size]? = some (.cells #[.int .i64 0, .string ⟨#[]⟩, .int .i64 0, .string ⟨#[]⟩, .int .i64 0, .int .i64 0, .string ⟨#[]⟩, .int .i64 0, .int .i64 0, .string ⟨#[]⟩, .string ⟨#[]⟩, .int .i64 0, .int .i64 0] 43 (0, 0)) := by rw [hW]; exact (row_oth hZ hgz)
    have hK : Kept b w W3 := by rw [hW]; exact (hK.setFar (Nat.le_succ _))
    clear hW qk0 fk0
    have q0 := cell_heap hG 0
    go_upto_region 13 with (first | (go_at_call 51; refine (CH _).mono ?_; rintro e wx ⟨rfl, hwx⟩; obtain rfl : _ = wx := hwx.symm) | (go_at_call 31; refine (CN _ hR).mono ?_; rintro e w1 ⟨rfl, hR, hk⟩; have hG := hk.row5 hG hgb; have hZ := hk.row5 hZ hzb; have hK := hK.trans hk; have qk12 := cell_heap hG 12; have fk12 := frozen_heap hG 12))
    refine wp_nameE _ (fun W13 hW => ?_)
    have hR : RAt b W13 s a2 e2 := by rw [hW]; exact (hR.put hgb _)
    have hG : W13.heap[w.heap.size + 1]? = some (.cells #[.int .i64 7, .string ⟨#[]⟩, .int .i64 0, .string ⟨#[]⟩, .int .i64 0, .int .i64 0, .string ⟨#[]⟩, .int .i64 0, .int .i64 0, .string ⟨#[]⟩, .string ⟨#[]⟩, .int .i64 0, .int .i64 ht] 43 (0, 0)) := by rw [hW]; exact (row_put5 hG)
    have hZ : W13.heap[w.heap.size]? = some (.cells #[.int .i64 0, .string ⟨#[]⟩, .int .i64 0, .string ⟨#[]⟩, .int .i64 0, .int .i64 0, .string ⟨#[]⟩, .int .i64 0, .int .i64 0, .string ⟨#[]⟩, .string ⟨#[]⟩, .int .i64 0, .int .i64 0] 43 (0, 0)) := by rw [hW]; exact (row_oth hZ hgz)
    have hK : Kept b w W13 := by rw [hW]; exact (hK.setFar (Nat.le_succ _))
    clear hW qk12 fk12
    have q0 := cell_heap hG 0
    have q1 := cell_heap hG 1
    have q2 := cell_heap hG 2
    have q3 := cell_heap hG 3
    have q4 := cell_heap hG 4
    have q5 := cell_heap hG 5
    have q6 := cell_heap hG 6
    have q7 := cell_heap hG 7
    have q8 := cell_heap hG 8
    have q9 := cell_heap hG 9
    have q10 := cell_heap hG 10
    have q11 := cell_heap hG 11
    have q12 := cell_heap hG 12
    go_wp2_with (refine wpList_storeRowTo rfl (.tmp 2) (.tmp 35) 43 rfl (by kernel_rfl) rfl rfl hZ rfl (Ev.row_one _ _ _ _ _ _ _ _ _ _ _ _ _ ) ?_)
    have hZ2 : (World.setRow _ w.heap.size #[.int .i64 7, .string ⟨#[]⟩, .int .i64 0, .string ⟨#[]⟩, .int .i64 0, .int .i64 0, .string ⟨#[]⟩, .int .i64 0, .int .i64 0, .string ⟨#[]⟩, .string ⟨#[]⟩, .int .i64 0, .int .i64 ht]).heap[w.heap.size]? = some (.cells #[.int .i64 7, .string ⟨#[]⟩, .int .i64 0, .string ⟨#[]⟩, .int .i64 0, .int .i64 0, .string ⟨#[]⟩, .int .i64 0, .int .i64 0, .string ⟨#[]⟩, .string ⟨#[]⟩, .int .i64 0, .int .i64 ht] 43 (0, 0)) := setRow_heap _ _ _ _ _ _ hZ
    have hrd := run_loadVar_mid (P := Try.prog) _ w.heap.size 0 43 (#[.int .i64 7, .string ⟨#[]⟩, .int .i64 0, .string ⟨#[]⟩, .int .i64 0, .int .i64 0, .string ⟨#[]⟩, .int .i64 0, .int .i64 0, .string ⟨#[]⟩, .string ⟨#[]⟩, .int .i64 0, .int .i64 ht] : Array Value).toList _ (rangeAt_row5 hZ2) Try.underlying43 rfl (by kernel_rfl)
    refine bodyPost_ret (v := .agg #[.int .i64 7, .string ⟨#[]⟩, .int .i64 0, .string ⟨#[]⟩, .int .i64 0, .int .i64 0, .string ⟨#[]⟩, .int .i64 0, .int .i64 0, .string ⟨#[]⟩, .string ⟨#[]⟩, .int .i64 0, .int .i64 ht]) ?_ rfl ?_
    · simp [results, Try.results69, asAddr]
      exact hrd
    exact ⟨rfl, hR.setRow hzb _, hK.setRow (Nat.le_refl _) _⟩
  have e3 : (kd == 3) = false := beq_eq_false_iff_ne.2 k3
  have e6 : (kd == 6) = false := beq_eq_false_iff_ne.2 k6
  have e7 : (kd == 7) = false := beq_eq_false_iff_ne.2 k7
  cases hh : hasP kd
  · rw [hh] at CH
    have hE : evG s at_ err = (⟨kd, ⟨#[]⟩, 0, ⟨#[]⟩, 0, 0, ⟨#[]⟩, 0, 0, ⟨#[]⟩, ⟨#[]⟩, 0, 0⟩, a0, e0) := by
      unfold evG
      simp only [g0, hh]
      rw [if_neg k3, if_neg k6, if_neg k7]; rfl
    rw [hE]
    clear hE g0 hh
    go_enter Try.func69, Try.ntmps69
    go_upto_region 2 with fail
    refine wp_nameE _ (fun W2 hW => ?_)
    have hZ := hz0
    have hG := hg0
    rw [← hW] at hZ hG
    have hb1 : Below w.heap.size w W2 := by rw [hW]; exact hbA
    have hR := h.below hb1 hlt
    have hK : Kept b w W2 := Kept.of hb1
    clear hW hz0 hg0 hbA hb1 h
    go_upto_region 3 with (go_at_call 31; refine (C0 _ hR).mono ?_; rintro e w1 ⟨rfl, hR, hk⟩; have hG := hk.row5 hG hgb; have hZ := hk.row5 hZ hzb; have hK := hK.trans hk; have qk0 := cell_heap hG 0; have fk0 := frozen_heap hG 0)
    refine wp_nameE _ (fun W3 hW => ?_)
    have hR : RAt b W3 s a0 e0 := by rw [hW]; exact (hR.put hgb _)
    have hG : W3.heap[w.heap.size + 1]? = some (.cells #[.int .i64 kd, .string ⟨#[]⟩, .int .i64 0, .string ⟨#[]⟩, .int .i64 0, .int .i64 0, .string ⟨#[]⟩, .int .i64 0, .int .i64 0, .string ⟨#[]⟩, .string ⟨#[]⟩, .int .i64 0, .int .i64 0] 43 (0, 0)) := by rw [hW]; exact (row_put5 hG)
    have hZ : W3.heap[w.heap.size]? = some (.cells #[.int .i64 0, .string ⟨#[]⟩, .int .i64 0, .string ⟨#[]⟩, .int .i64 0, .int .i64 0, .string ⟨#[]⟩, .int .i64 0, .int .i64 0, .string ⟨#[]⟩, .string ⟨#[]⟩, .int .i64 0, .int .i64 0] 43 (0, 0)) := by rw [hW]; exact (row_oth hZ hgz)
    have hK : Kept b w W3 := by rw [hW]; exact (hK.setFar (Nat.le_succ _))
    clear hW qk0 fk0
    have q0 := cell_heap hG 0
    go_upto_region 13 with (go_at_call 51; refine (CH _).mono ?_; rintro e wx ⟨rfl, hwx⟩; obtain rfl : _ = wx := hwx.symm)
    have q0 := cell_heap hG 0
    have q1 := cell_heap hG 1
    have q2 := cell_heap hG 2
    have q3 := cell_heap hG 3
    have q4 := cell_heap hG 4
    have q5 := cell_heap hG 5
    have q6 := cell_heap hG 6
    have q7 := cell_heap hG 7
    have q8 := cell_heap hG 8
    have q9 := cell_heap hG 9
    have q10 := cell_heap hG 10
    have q11 := cell_heap hG 11
    have q12 := cell_heap hG 12
    go_wp2_with (refine wpList_storeRowTo rfl (.tmp 2) (.tmp 35) 43 rfl (by kernel_rfl) rfl rfl hZ rfl (Ev.row_one _ _ _ _ _ _ _ _ _ _ _ _ _ ) ?_)
    have hZ2 : (World.setRow _ w.heap.size #[.int .i64 kd, .string ⟨#[]⟩, .int .i64 0, .string ⟨#[]⟩, .int .i64 0, .int .i64 0, .string ⟨#[]⟩, .int .i64 0, .int .i64 0, .string ⟨#[]⟩, .string ⟨#[]⟩, .int .i64 0, .int .i64 0]).heap[w.heap.size]? = some (.cells #[.int .i64 kd, .string ⟨#[]⟩, .int .i64 0, .string ⟨#[]⟩, .int .i64 0, .int .i64 0, .string ⟨#[]⟩, .int .i64 0, .int .i64 0, .string ⟨#[]⟩, .string ⟨#[]⟩, .int .i64 0, .int .i64 0] 43 (0, 0)) := setRow_heap _ _ _ _ _ _ hZ
    have hrd := run_loadVar_mid (P := Try.prog) _ w.heap.size 0 43 (#[.int .i64 kd, .string ⟨#[]⟩, .int .i64 0, .string ⟨#[]⟩, .int .i64 0, .int .i64 0, .string ⟨#[]⟩, .int .i64 0, .int .i64 0, .string ⟨#[]⟩, .string ⟨#[]⟩, .int .i64 0, .int .i64 0] : Array Value).toList _ (rangeAt_row5 hZ2) Try.underlying43 rfl (by kernel_rfl)
    refine bodyPost_ret (v := .agg #[.int .i64 kd, .string ⟨#[]⟩, .int .i64 0, .string ⟨#[]⟩, .int .i64 0, .int .i64 0, .string ⟨#[]⟩, .int .i64 0, .int .i64 0, .string ⟨#[]⟩, .string ⟨#[]⟩, .int .i64 0, .int .i64 0]) ?_ rfl ?_
    · simp [results, Try.results69, asAddr]
      exact hrd
    exact ⟨rfl, hR.setRow hzb _, hK.setRow (Nat.le_refl _) _⟩
  · rw [hh] at CH
    obtain ⟨⟨sp, sc, dp, dc, sq, da, th, ta, a1, e1⟩, g1⟩ : ∃ t, pkG s a0 e0 = t := ⟨_, rfl⟩
    have CP := fun W h => pkRead_any b W s a0 e0 h hs
    simp only [g1] at CP
    have hE : evG s at_ err = (⟨kd, sp, sc, dp, dc, sq, da, th, ta, ⟨#[]⟩, ⟨#[]⟩, 0, 0⟩, a1, e1) := by
      unfold evG
      simp only [g0, g1, hh]
      rw [if_neg k3, if_neg k6, if_neg k7]; rfl
    rw [hE]
    clear hE g0 g1 hh
    go_enter Try.func69, Try.ntmps69
    go_upto_region 2 with fail
    refine wp_nameE _ (fun W2 hW => ?_)
    have hZ := hz0
    have hG := hg0
    rw [← hW] at hZ hG
    have hb1 : Below w.heap.size w W2 := by rw [hW]; exact hbA
    have hR := h.below hb1 hlt
    have hK : Kept b w W2 := Kept.of hb1
    clear hW hz0 hg0 hbA hb1 h
    go_upto_region 3 with (go_at_call 31; refine (C0 _ hR).mono ?_; rintro e w1 ⟨rfl, hR, hk⟩; have hG := hk.row5 hG hgb; have hZ := hk.row5 hZ hzb; have hK := hK.trans hk; have qk0 := cell_heap hG 0; have fk0 := frozen_heap hG 0)
    refine wp_nameE _ (fun W3 hW => ?_)
    have hR : RAt b W3 s a0 e0 := by rw [hW]; exact (hR.put hgb _)
    have hG : W3.heap[w.heap.size + 1]? = some (.cells #[.int .i64 kd, .string ⟨#[]⟩, .int .i64 0, .string ⟨#[]⟩, .int .i64 0, .int .i64 0, .string ⟨#[]⟩, .int .i64 0, .int .i64 0, .string ⟨#[]⟩, .string ⟨#[]⟩, .int .i64 0, .int .i64 0] 43 (0, 0)) := by rw [hW]; exact (row_put5 hG)
    have hZ : W3.heap[w.heap.size]? = some (.cells #[.int .i64 0, .string ⟨#[]⟩, .int .i64 0, .string ⟨#[]⟩, .int .i64 0, .int .i64 0, .string ⟨#[]⟩, .int .i64 0, .int .i64 0, .string ⟨#[]⟩, .string ⟨#[]⟩, .int .i64 0, .int .i64 0] 43 (0, 0)) := by rw [hW]; exact (row_oth hZ hgz)
    have hK : Kept b w W3 := by rw [hW]; exact (hK.setFar (Nat.le_succ _))
    clear hW qk0 fk0
    have q0 := cell_heap hG 0
    go_upto_region 5 with (first | (go_at_call 51; refine (CH _).mono ?_; rintro e wx ⟨rfl, hwx⟩; obtain rfl : _ = wx := hwx.symm) | (go_at_call 72; refine (CP _ hR).mono ?_; rintro e w1 ⟨rfl, hR, hk⟩; have hG := hk.row5 hG hgb; have hZ := hk.row5 hZ hzb; have hK := hK.trans hk; have qk1 := cell_heap hG 1; have fk1 := frozen_heap hG 1; have qk2 := cell_heap hG 2; have fk2 := frozen_heap hG 2; have qk3 := cell_heap hG 3; have fk3 := frozen_heap hG 3; have qk4 := cell_heap hG 4; have fk4 := frozen_heap hG 4; have qk5 := cell_heap hG 5; have fk5 := frozen_heap hG 5; have qk6 := cell_heap hG 6; have fk6 := frozen_heap hG 6; have qk7 := cell_heap hG 7; have fk7 := frozen_heap hG 7; have qk8 := cell_heap hG 8; have fk8 := frozen_heap hG 8))
    refine wp_nameE _ (fun W5 hW => ?_)
    have hR : RAt b W5 s a1 e1 := by rw [hW]; exact ((((((((hR.put hgb _).put hgb _).put hgb _).put hgb _).put hgb _).put hgb _).put hgb _).put hgb _)
    have hG : W5.heap[w.heap.size + 1]? = some (.cells #[.int .i64 kd, .string sp, .int .i64 sc, .string dp, .int .i64 dc, .int .i64 sq, .string da, .int .i64 th, .int .i64 ta, .string ⟨#[]⟩, .string ⟨#[]⟩, .int .i64 0, .int .i64 0] 43 (0, 0)) := by rw [hW]; exact (row_put5 (row_put5 (row_put5 (row_put5 (row_put5 (row_put5 (row_put5 (row_put5 hG))))))))
    have hZ : W5.heap[w.heap.size]? = some (.cells #[.int .i64 0, .string ⟨#[]⟩, .int .i64 0, .string ⟨#[]⟩, .int .i64 0, .int .i64 0, .string ⟨#[]⟩, .int .i64 0, .int .i64 0, .string ⟨#[]⟩, .string ⟨#[]⟩, .int .i64 0, .int .i64 0] 43 (0, 0)) := by rw [hW]; exact (row_oth (row_oth (row_oth (row_oth (row_oth (row_oth (row_oth (row_oth hZ hgz) hgz) hgz) hgz) hgz) hgz) hgz) hgz)
    have hK : Kept b w W5 := by rw [hW]; exact ((((((((hK.setFar (Nat.le_succ _)).setFar (Nat.le_succ _)).setFar (Nat.le_succ _)).setFar (Nat.le_succ _)).setFar (Nat.le_succ _)).setFar (Nat.le_succ _)).setFar (Nat.le_succ _)).setFar (Nat.le_succ _))
    clear hW qk1 fk1 qk2 fk2 qk3 fk3 qk4 fk4 qk5 fk5 qk6 fk6 qk7 fk7 qk8 fk8
    have q0 := cell_heap hG 0
    go_upto_region 13 with fail
    have q0 := cell_heap hG 0
    have q1 := cell_heap hG 1
    have q2 := cell_heap hG 2
    have q3 := cell_heap hG 3
    have q4 := cell_heap hG 4
    have q5 := cell_heap hG 5
    have q6 := cell_heap hG 6
    have q7 := cell_heap hG 7
    have q8 := cell_heap hG 8
    have q9 := cell_heap hG 9
    have q10 := cell_heap hG 10
    have q11 := cell_heap hG 11
    have q12 := cell_heap hG 12
    go_wp2_with (refine wpList_storeRowTo rfl (.tmp 2) (.tmp 35) 43 rfl (by kernel_rfl) rfl rfl hZ rfl (Ev.row_one _ _ _ _ _ _ _ _ _ _ _ _ _ ) ?_)
    have hZ2 : (World.setRow _ w.heap.size #[.int .i64 kd, .string sp, .int .i64 sc, .string dp, .int .i64 dc, .int .i64 sq, .string da, .int .i64 th, .int .i64 ta, .string ⟨#[]⟩, .string ⟨#[]⟩, .int .i64 0, .int .i64 0]).heap[w.heap.size]? = some (.cells #[.int .i64 kd, .string sp, .int .i64 sc, .string dp, .int .i64 dc, .int .i64 sq, .string da, .int .i64 th, .int .i64 ta, .string ⟨#[]⟩, .string ⟨#[]⟩, .int .i64 0, .int .i64 0] 43 (0, 0)) := setRow_heap _ _ _ _ _ _ hZ
    have hrd := run_loadVar_mid (P := Try.prog) _ w.heap.size 0 43 (#[.int .i64 kd, .string sp, .int .i64 sc, .string dp, .int .i64 dc, .int .i64 sq, .string da, .int .i64 th, .int .i64 ta, .string ⟨#[]⟩, .string ⟨#[]⟩, .int .i64 0, .int .i64 0] : Array Value).toList _ (rangeAt_row5 hZ2) Try.underlying43 rfl (by kernel_rfl)
    refine bodyPost_ret (v := .agg #[.int .i64 kd, .string sp, .int .i64 sc, .string dp, .int .i64 dc, .int .i64 sq, .string da, .int .i64 th, .int .i64 ta, .string ⟨#[]⟩, .string ⟨#[]⟩, .int .i64 0, .int .i64 0]) ?_ rfl ?_
    · simp [results, Try.results69, asAddr]
      exact hrd
    exact ⟨rfl, hR.setRow hzb _, hK.setRow (Nat.le_refl _) _⟩
end Go.Proofs.Ytcbacchelabljaa
