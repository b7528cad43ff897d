/- Packets out of bytes. -/
import Derived.Test.YthipnkbfdkmhaaaEvR
import Derived.Deep.MidRow
import Derived.Deep.Cut
import Derived.WalkKit
import Derived.ProofKit
import Derived.Handy
import Derived.Below
import Derived.BigQuiet
import Derived.Lib.Hide
import Derived.IntWalk
import Derived.Outline
import Derived.WalkLawsBesides
import Derived.WalkSpells
namespace Go.Proofs.Ythipnkbfdkmhaaa
open Go.RowKit
attribute [local go_sem] strV
set_option linter.unusedVariables false
structure PkG where
  sp : ByteArray
  sc : Int
  dp : ByteArray
  dc : Int
  sq : Int
  da : ByteArray
  th : Int
  ta : Int
  a : Int
  e : Int
/-- What reading a packet answers, the place behind it, the error. -/
def pkG (s : ByteArray) (at_ err : Int) : PkG :=
  let x1 := endG s at_ err
  let x2 := endG s x1.2.2.1 x1.2.2.2
  let x3 := numG s x2.2.2.1 x2.2.2.2 1 1099511627776
  let x4 := textG s x3.2.1 x3.2.2 200
  let x5 := numG s x4.2.1 x4.2.2 0 1099511627776
  let x6 := numG s x5.2.1 x5.2.2 0 1099511627776
  ⟨x1.1, x1.2.1, x2.1, x2.2.1, x3.1, x4.1, x5.1, x6.1, x6.2.1, x6.2.2⟩
theorem row_oth' (w : World) (g k j : Nat) (v : Value) (hne : j ≠ g) : (w.setCell ⟨g, k, none⟩ v).heap[j]? = w.heap[j]? := by
  show (w.heap.modify g _)[j]? = _
  rw [Array.getElem?_modify, if_neg (Ne.symm hne)]
theorem Kept.setFar {b g k : Nat} {w w1 : World} {v : Value} (h : Kept b w w1) (hg : w.heap.size ≤ g) : Kept b w (w1.setCell ⟨g, k, none⟩ v) :=
  ⟨h.os, h.tape, h.output, by rw [World.size_setCell]; exact h.size, fun j hj hne => (row_oth' w1 g k j v (by omega)).trans (h.block j hj hne)⟩
theorem Pk.row_one8 (sp : ByteArray) (sc : Int) (dp : ByteArray) (dc sq : Int) (da : ByteArray) (th ta : Int) : (#[.string sp, .int .i64 sc, .string dp, .int .i64 dc, .int .i64 sq, .string da, .int .i64 th, .int .i64 ta] : Array Value).all (·.oneCell') = true := by
  rw [Array.all_eq_true_iff_forall_mem]; intro v hv; simp at hv; rcases hv with rfl | rfl | rfl | rfl | rfl | rfl | rfl | rfl <;> rfl
set_option maxRecDepth 100000 in
set_option maxHeartbeats 6400000 in
theorem pkRead_any (b : Nat) (w : World) (s : ByteArray) (at_ err : Int) (h : RAt b w s at_ err) (hs : s.size ≤ 1000000000) :
    Calls Try.prog 102 #[.pointer (some ⟨b, 0, none⟩)] w fun e w' => e = .returned (.agg #[.string (pkG s at_ err).sp, .int .i64 (pkG s at_ err).sc, .string (pkG s at_ err).dp, .int .i64 (pkG s at_ err).dc, .int .i64 (pkG s at_ err).sq, .string (pkG s at_ err).da, .int .i64 (pkG s at_ err).th, .int .i64 (pkG s at_ err).ta]) ∧ RAt b w' s (pkG s at_ err).a (pkG s at_ err).e ∧ Kept b w w' := by
  obtain ⟨⟨sp, sc, a1, e1⟩, h1⟩ : ∃ t, endG s at_ err = t := ⟨_, rfl⟩
  obtain ⟨⟨dp, dc, a2, e2⟩, h2⟩ : ∃ t, endG s a1 e1 = t := ⟨_, rfl⟩
  obtain ⟨⟨sq, a3, e3⟩, h3⟩ : ∃ t, numG s a2 e2 1 1099511627776 = t := ⟨_, rfl⟩
  obtain ⟨⟨da, a4, e4⟩, h4⟩ : ∃ t, textG s a3 e3 200 = t := ⟨_, rfl⟩
  obtain ⟨⟨th, a5, e5⟩, h5⟩ : ∃ t, numG s a4 e4 0 1099511627776 = t := ⟨_, rfl⟩
  obtain ⟨⟨ta, a6, e6⟩, h6⟩ : ∃ t, numG s a5 e5 0 1099511627776 = t := ⟨_, rfl⟩
  have hE : pkG s at_ err = ⟨sp, sc, dp, dc, sq, da, th, ta, a6, e6⟩ := by unfold pkG; simp only [h1, h2, h3, h4, h5, h6]
  rw [hE]
  have C1 := fun W h => readEnd_any b W s at_ err h hs
  have C2 := fun W h => readEnd_any b W s a1 e1 h hs
  have C3 := fun W h => rnum_all b W s a2 e2 1 1099511627776 h hs
  have C4 := fun W h => rtext_all b W s a3 e3 200 h hs
  have C5 := fun W h => rnum_all b W s a4 e4 0 1099511627776 h hs
  have C6 := fun W h => rnum_all b W s a5 e5 0 1099511627776 h hs
  simp only [h1] at C1
  simp only [h2] at C2
  simp only [h3] at C3
  simp only [h4] at C4
  simp only [h5] at C5
  simp only [h6] at C6
  clear h1 h2 h3 h4 h5 h6 hE
  have hlt := h.lt
  have hz0 : ((w.alloc (.cells #[.string ⟨#[]⟩, .int .i64 0, .string ⟨#[]⟩, .int .i64 0, .int .i64 0, .string ⟨#[]⟩, .int .i64 0, .int .i64 0] 29)).alloc (.cells #[.string ⟨#[]⟩, .int .i64 0, .string ⟨#[]⟩, .int .i64 0, .int .i64 0, .string ⟨#[]⟩, .int .i64 0, .int .i64 0] 29)).heap[w.heap.size]? = some (.cells #[.string ⟨#[]⟩, .int .i64 0, .string ⟨#[]⟩, .int .i64 0, .int .i64 0, .string ⟨#[]⟩, .int .i64 0, .int .i64 0] 29 (0, 0)) := by
    show ((w.heap.push _).push _)[w.heap.size]? = _
    rw [Array.getElem?_push_lt (by simp), ← Array.getElem?_eq_getElem (by simp), Array.getElem?_push_size]
  have hg0 : ((w.alloc (.cells #[.string ⟨#[]⟩, .int .i64 0, .string ⟨#[]⟩, .int .i64 0, .int .i64 0, .string ⟨#[]⟩, .int .i64 0, .int .i64 0] 29)).alloc (.cells #[.string ⟨#[]⟩, .int .i64 0, .string ⟨#[]⟩, .int .i64 0, .int .i64 0, .string ⟨#[]⟩, .int .i64 0, .int .i64 0] 29)).heap[w.heap.size + 1]? = some (.cells #[.string ⟨#[]⟩, .int .i64 0, .string ⟨#[]⟩, .int .i64 0, .int .i64 0, .string ⟨#[]⟩, .int .i64 0, .int .i64 0] 29 (0, 0)) := by
    show ((w.heap.push _).push _)[w.heap.size + 1]? = _
    rw [show w.heap.size + 1 = (w.heap.push (Obj.cells #[.string ⟨#[]⟩, .int .i64 0, .string ⟨#[]⟩, .int .i64 0, .int .i64 0, .string ⟨#[]⟩, .int .i64 0, .int .i64 0] 29 (0, 0))).size by simp, Array.getElem?_push_size]
  have hbA : Below w.heap.size w ((w.alloc (.cells #[.string ⟨#[]⟩, .int .i64 0, .string ⟨#[]⟩, .int .i64 0, .int .i64 0, .string ⟨#[]⟩, .int .i64 0, .int .i64 0] 29)).alloc (.cells #[.string ⟨#[]⟩, .int .i64 0, .string ⟨#[]⟩, .int .i64 0, .int .i64 0, .string ⟨#[]⟩, .int .i64 0, .int .i64 0] 29)) := Below.alloc (Below.alloc (Below.refl _ _) (Nat.le_refl _) _) (by simp) _
  go_enter Try.func102, Try.ntmps102
  go_upto_region 2 with fail
  refine wp_nameE _ (fun W2 hW => ?_)
  have hZ := hz0
  have hG := hg0
  rw [← hW] at hZ hG
  have hb1 : Below w.heap.size w W2 := by rw [hW]; exact hbA
  have hR := h.below hb1 hlt
  have hK : Kept b w W2 := Kept.of hb1
  have hzb : w.heap.size ≠ b := by omega
  have hgb : w.heap.size + 1 ≠ b := by omega
  have hgz : w.heap.size + 1 ≠ w.heap.size := by omega
  clear hW hz0 hg0 hbA hb1 h
  go_upto_region 3 with (go_at_call 121; refine (C1 _ hR).mono ?_; rintro e w1 ⟨rfl, hR, hk⟩; have hG := hk.row5 hG hgb; have hZ := hk.row5 hZ hzb; have hK := hK.trans hk; have qk0 := cell_heap hG 0; have fk0 := frozen_heap hG 0; have qk1 := cell_heap hG 1; have fk1 := frozen_heap hG 1)
  refine wp_nameE _ (fun W3 hW => ?_)
  have hR : RAt b W3 s a1 e1 := by rw [hW]; exact ((hR.put hgb _).put hgb _)
  have hG : W3.heap[w.heap.size + 1]? = some (.cells #[.string sp, .int .i64 sc, .string ⟨#[]⟩, .int .i64 0, .int .i64 0, .string ⟨#[]⟩, .int .i64 0, .int .i64 0] 29 (0, 0)) := by rw [hW]; exact (row_put5 (row_put5 hG))
  have hZ : W3.heap[w.heap.size]? = some (.cells #[.string ⟨#[]⟩, .int .i64 0, .string ⟨#[]⟩, .int .i64 0, .int .i64 0, .string ⟨#[]⟩, .int .i64 0, .int .i64 0] 29 (0, 0)) := by rw [hW]; exact (row_oth (row_oth hZ hgz) hgz)
  have hK : Kept b w W3 := by rw [hW]; exact ((hK.setFar (Nat.le_succ _)).setFar (Nat.le_succ _))
  clear hW qk0 fk0 qk1 fk1
  go_upto_region 4 with (go_at_call 121; refine (C2 _ hR).mono ?_; rintro e w1 ⟨rfl, hR, hk⟩; have hG := hk.row5 hG hgb; have hZ := hk.row5 hZ hzb; have hK := hK.trans hk; have qk2 := cell_heap hG 2; have fk2 := frozen_heap hG 2; have qk3 := cell_heap hG 3; have fk3 := frozen_heap hG 3)
  refine wp_nameE _ (fun W4 hW => ?_)
  have hR : RAt b W4 s a2 e2 := by rw [hW]; exact ((hR.put hgb _).put hgb _)
  have hG : W4.heap[w.heap.size + 1]? = some (.cells #[.string sp, .int .i64 sc, .string dp, .int .i64 dc, .int .i64 0, .string ⟨#[]⟩, .int .i64 0, .int .i64 0] 29 (0, 0)) := by rw [hW]; exact (row_put5 (row_put5 hG))
  have hZ : W4.heap[w.heap.size]? = some (.cells #[.string ⟨#[]⟩, .int .i64 0, .string ⟨#[]⟩, .int .i64 0, .int .i64 0, .string ⟨#[]⟩, .int .i64 0, .int .i64 0] 29 (0, 0)) := by rw [hW]; exact (row_oth (row_oth hZ hgz) hgz)
  have hK : Kept b w W4 := by rw [hW]; exact ((hK.setFar (Nat.le_succ _)).setFar (Nat.le_succ _))
  clear hW qk2 fk2 qk3 fk3
  go_upto_region 5 with (go_at_call 78; refine (C3 _ hR).mono ?_; rintro e w1 ⟨rfl, hR, hk⟩; have hG := hk.row5 hG hgb; have hZ := hk.row5 hZ hzb; have hK := hK.trans hk; have qk4 := cell_heap hG 4; have fk4 := frozen_heap hG 4)
  refine wp_nameE _ (fun W5 hW => ?_)
  have hR : RAt b W5 s a3 e3 := by rw [hW]; exact (hR.put hgb _)
  have hG : W5.heap[w.heap.size + 1]? = some (.cells #[.string sp, .int .i64 sc, .string dp, .int .i64 dc, .int .i64 sq, .string ⟨#[]⟩, .int .i64 0, .int .i64 0] 29 (0, 0)) := by rw [hW]; exact (row_put5 hG)
  have hZ : W5.heap[w.heap.size]? = some (.cells #[.string ⟨#[]⟩, .int .i64 0, .string ⟨#[]⟩, .int .i64 0, .int .i64 0, .string ⟨#[]⟩, .int .i64 0, .int .i64 0] 29 (0, 0)) := by rw [hW]; exact (row_oth hZ hgz)
  have hK : Kept b w W5 := by rw [hW]; exact (hK.setFar (Nat.le_succ _))
  clear hW qk4 fk4
  go_upto_region 6 with (go_at_call 103; refine (C4 _ hR).mono ?_; rintro e w1 ⟨rfl, hR, hk⟩; have hG := hk.row5 hG hgb; have hZ := hk.row5 hZ hzb; have hK := hK.trans hk; have qk5 := cell_heap hG 5; have fk5 := frozen_heap hG 5)
  refine wp_nameE _ (fun W6 hW => ?_)
  have hR : RAt b W6 s a4 e4 := by rw [hW]; exact (hR.put hgb _)
  have hG : W6.heap[w.heap.size + 1]? = some (.cells #[.string sp, .int .i64 sc, .string dp, .int .i64 dc, .int .i64 sq, .string da, .int .i64 0, .int .i64 0] 29 (0, 0)) := by rw [hW]; exact (row_put5 hG)
  have hZ : W6.heap[w.heap.size]? = some (.cells #[.string ⟨#[]⟩, .int .i64 0, .string ⟨#[]⟩, .int .i64 0, .int .i64 0, .string ⟨#[]⟩, .int .i64 0, .int .i64 0] 29 (0, 0)) := by rw [hW]; exact (row_oth hZ hgz)
  have hK : Kept b w W6 := by rw [hW]; exact (hK.setFar (Nat.le_succ _))
  clear hW qk5 fk5
  go_upto_region 7 with (go_at_call 78; refine (C5 _ hR).mono ?_; rintro e w1 ⟨rfl, hR, hk⟩; have hG := hk.row5 hG hgb; have hZ := hk.row5 hZ hzb; have hK := hK.trans hk; have qk6 := cell_heap hG 6; have fk6 := frozen_heap hG 6)
  refine wp_nameE _ (fun W7 hW => ?_)
  have hR : RAt b W7 s a5 e5 := by rw [hW]; exact (hR.put hgb _)
  have hG : W7.heap[w.heap.size + 1]? = some (.cells #[.string sp, .int .i64 sc, .string dp, .int .i64 dc, .int .i64 sq, .string da, .int .i64 th, .int .i64 0] 29 (0, 0)) := by rw [hW]; exact (row_put5 hG)
  have hZ : W7.heap[w.heap.size]? = some (.cells #[.string ⟨#[]⟩, .int .i64 0, .string ⟨#[]⟩, .int .i64 0, .int .i64 0, .string ⟨#[]⟩, .int .i64 0, .int .i64 0] 29 (0, 0)) := by rw [hW]; exact (row_oth hZ hgz)
  have hK : Kept b w W7 := by rw [hW]; exact (hK.setFar (Nat.le_succ _))
  clear hW qk6 fk6
  go_upto_region 8 with (go_at_call 78; refine (C6 _ hR).mono ?_; rintro e w1 ⟨rfl, hR, hk⟩; have hG := hk.row5 hG hgb; have hZ := hk.row5 hZ hzb; have hK := hK.trans hk; have qk7 := cell_heap hG 7; have fk7 := frozen_heap hG 7)
  refine wp_nameE _ (fun W8 hW => ?_)
  have hR : RAt b W8 s a6 e6 := by rw [hW]; exact (hR.put hgb _)
  have hG : W8.heap[w.heap.size + 1]? = some (.cells #[.string sp, .int .i64 sc, .string dp, .int .i64 dc, .int .i64 sq, .string da, .int .i64 th, .int .i64 ta] 29 (0, 0)) := by rw [hW]; exact (row_put5 hG)
  have hZ : W8.heap[w.heap.size]? = some (.cells #[.string ⟨#[]⟩, .int .i64 0, .string ⟨#[]⟩, .int .i64 0, .int .i64 0, .string ⟨#[]⟩, .int .i64 0, .int .i64 0] 29 (0, 0)) := by rw [hW]; exact (row_oth hZ hgz)
  have hK : Kept b w W8 := by rw [hW]; exact (hK.setFar (Nat.le_succ _))
  clear hW qk7 fk7
  have q0 := cell_heap hG 0; have q1 := cell_heap hG 1; have q2 := cell_heap hG 2; have q3 := cell_heap hG 3; have q4 := cell_heap hG 4; have q5 := cell_heap hG 5; have q6 := cell_heap hG 6; have q7 := cell_heap hG 7
  go_wp2_with (refine wpList_storeRowTo rfl (.tmp 2) (.tmp 22) 29 rfl (by kernel_rfl) rfl rfl hZ rfl (Pk.row_one8 _ _ _ _ _ _ _ _) ?_)
  have hZ2 : (World.setRow _ w.heap.size #[.string sp, .int .i64 sc, .string dp, .int .i64 dc, .int .i64 sq, .string da, .int .i64 th, .int .i64 ta]).heap[w.heap.size]? = some (.cells #[.string sp, .int .i64 sc, .string dp, .int .i64 dc, .int .i64 sq, .string da, .int .i64 th, .int .i64 ta] 29 (0, 0)) := setRow_heap _ _ _ _ _ _ hZ
  have hrd := run_loadVar_mid (P := Try.prog) _ w.heap.size 0 29 (#[.string sp, .int .i64 sc, .string dp, .int .i64 dc, .int .i64 sq, .string da, .int .i64 th, .int .i64 ta] : Array Value).toList _ (rangeAt_row5 hZ2) Try.underlying29 rfl (by kernel_rfl)
  refine bodyPost_ret (v := .agg #[.string sp, .int .i64 sc, .string dp, .int .i64 dc, .int .i64 sq, .string da, .int .i64 th, .int .i64 ta]) ?_ rfl ?_
  · simp [results, Try.results102, asAddr]
    exact hrd
  exact ⟨rfl, hR.setRow hzb _, hK.setRow (Nat.le_refl _) _⟩
end Go.Proofs.Ythipnkbfdkmhaaa
