/- Events out of bytes: Decode. -/
import Derived.Test.YtcbacchelabljaaEvRE
import Derived.Test.YtcbacchelabljaaEvM
import Derived.Deep.MidRow
import Derived.Deep.Cut
import Derived.WalkKit
import Derived.ProofKit
import Derived.Handy
import Derived.Below
import Derived.BigQuiet
import Derived.Lib.Hide
import Derived.IntWalk
import Derived.Outline
import Derived.WalkLawsBesides
import Derived.WalkSpells
namespace Go.Proofs.Ytcbacchelabljaa
open Go.RowKit
attribute [local go_sem] strV
set_option linter.unusedVariables false
def Ev.zero : Ev := ⟨0, ⟨#[]⟩, 0, ⟨#[]⟩, 0, 0, ⟨#[]⟩, 0, 0, ⟨#[]⟩, ⟨#[]⟩, 0, 0⟩
def decEv (v : ByteArray) : Ev × Int :=
  let x := evG v 0 0
  let f := endF v x.2.1 x.2.2
  if f = 0 then (bif mayEv x.1 then (x.1, 0) else (Ev.zero, 1)) else (Ev.zero, f)
theorem zero_size (v : ByteArray) : (⟨#[]⟩ : ByteArray).size ≤ v.size := Nat.zero_le _
theorem evG_size (v : ByteArray) (a e : Int) : (evG v a e).1.sp.size ≤ v.size ∧ (evG v a e).1.dp.size ≤ v.size ∧ (evG v a e).1.ep.size ≤ v.size := by
  have k1 : ∀ a e, (pkG v a e).sp.size ≤ v.size := fun a e => by unfold pkG endG; exact textG_size _ _ _ _
  have k2 : ∀ a e, (pkG v a e).dp.size ≤ v.size := fun a e => by unfold pkG endG; exact textG_size _ _ _ _
  have k3 : ∀ a e, (endG v a e).1.size ≤ v.size := fun a e => by unfold endG; exact textG_size _ _ _ _
  unfold evG
  dsimp only
  split
  · exact ⟨k1 _ _, k2 _ _, zero_size v⟩
  · split
    · exact ⟨zero_size v, zero_size v, k3 _ _⟩
    · split
      · exact ⟨zero_size v, zero_size v, zero_size v⟩
      · split
        · exact ⟨k1 _ _, k2 _ _, zero_size v⟩
        · exact ⟨zero_size v, zero_size v, zero_size v⟩
set_option maxRecDepth 100000 in
set_option maxHeartbeats 6400000 in
theorem decodeEv_any (v : ByteArray) (w : World) (hv : v.size ≤ 1000000000) :
    Calls Try.prog 57 #[.string v] w fun e w' => e = .returned (.tuple #[.agg (decEv v).1.row, .int .i64 (decEv v).2]) ∧ Below w.heap.size w w' := by
  have hsz := evG_size v 0 0
  have CR := fun b W h => evRead_any b W v 0 0 h hv
  obtain ⟨⟨⟨kd, sp, sc, dp, dc, sq, da, th, ta, ack, ep, ec, ht⟩, a5, e5⟩, h1⟩ : ∃ t, evG v 0 0 = t := ⟨_, rfl⟩
  obtain ⟨E9, h9⟩ : ∃ t, endF v a5 e5 = t := ⟨_, rfl⟩
  have hD : decEv v = if E9 = 0 then (bif mayEv ⟨kd, sp, sc, dp, dc, sq, da, th, ta, ack, ep, ec, ht⟩ then (⟨kd, sp, sc, dp, dc, sq, da, th, ta, ack, ep, ec, ht⟩, 0) else (Ev.zero, 1)) else (Ev.zero, E9) := by
    unfold decEv
    simp only [h1, h9]
  have C9 := fun b W h => rend_any b W v a5 e5 h
  simp only [h1, Ev.row] at CR
  simp only [h9] at C9
  rw [h1] at hsz
  simp only at hsz
  obtain ⟨z1, z2, z3⟩ := hsz
  have CM := fun W => mayEv_any kd sp sc dp dc sq da th ta ack ep ec ht W (by unfold maxLen; omega) (by unfold maxLen; omega) (by unfold maxLen; omega)
  have HD := Lib.hid hD
  clear hD h1 h9 z1 z2 z3
  go_enter Try.func57, Try.ntmps57
  go_upto_region 2 with (go_at_call 29; refine (rof_any v _).mono ?_; rintro e wb ⟨rfl, hR, hbb⟩)
  have hz0 : (w.alloc (.cells #[.int .i64 0, .string ⟨#[]⟩, .int .i64 0, .string ⟨#[]⟩, .int .i64 0, .int .i64 0, .string ⟨#[]⟩, .int .i64 0, .int .i64 0, .string ⟨#[]⟩, .string ⟨#[]⟩, .int .i64 0, .int .i64 0] 43)).heap[w.heap.size]? = some (.cells #[.int .i64 0, .string ⟨#[]⟩, .int .i64 0, .string ⟨#[]⟩, .int .i64 0, .int .i64 0, .string ⟨#[]⟩, .int .i64 0, .int .i64 0, .string ⟨#[]⟩, .string ⟨#[]⟩, .int .i64 0, .int .i64 0] 43 (0, 0)) := by
    show (w.heap.push _)[w.heap.size]? = _
    rw [Array.getElem?_push_size]
  have hbs : (w.alloc (.cells #[.int .i64 0, .string ⟨#[]⟩, .int .i64 0, .string ⟨#[]⟩, .int .i64 0, .int .i64 0, .string ⟨#[]⟩, .int .i64 0, .int .i64 0, .string ⟨#[]⟩, .string ⟨#[]⟩, .int .i64 0, .int .i64 0] 43)).heap.size = w.heap.size + 1 := by simp
  rw [hbs] at hR hbb
  have hZ := cells_of hz0 hbb (by omega)
  have hbel : Below w.heap.size w wb := (Below.alloc (Below.refl _ _) (Nat.le_refl _) _).trans (hbb.mono (by omega))
  clear hz0 hbb
  have hzb : w.heap.size ≠ w.heap.size + 1 := by omega
  go_upto_region 3 with (go_at_call 69; refine (CR _ _ hR).mono ?_; rintro e w1 ⟨rfl, hR, hk⟩; have hZ := hk.row5 hZ hzb; have hbel := hbel.trans (hk.below (Nat.le_succ _) hbel.size))
  refine wp_nameE _ (fun W8 hW8 => ?_)
  have hba : Below w1.heap.size w1 W8 := by rw [hW8]; exact Below.alloc (Below.refl _ _) (Nat.le_refl _) _
  have hG : W8.heap[w1.heap.size]? = some (.cells #[.int .i64 kd, .string sp, .int .i64 sc, .string dp, .int .i64 dc, .int .i64 sq, .string da, .int .i64 th, .int .i64 ta, .string ack, .string ep, .int .i64 ec, .int .i64 ht] 43 (0, 0)) := by
    rw [hW8]; show (w1.heap.push _)[w1.heap.size]? = _; rw [Array.getElem?_push_size]
  have hZ := cells_of hZ hba (Array.getElem?_eq_some_iff.1 hZ).1
  have hR := hR.below hba hR.lt
  have hbel := hbel.trans (hba.mono hbel.size)
  clear hW8 hba hbs CR
  have q0 := cell_heap hG 0; have q1 := cell_heap hG 1; have q2 := cell_heap hG 2; have q3 := cell_heap hG 3; have q4 := cell_heap hG 4; have q5 := cell_heap hG 5; have q6 := cell_heap hG 6; have q7 := cell_heap hG 7; have q8 := cell_heap hG 8; have q9 := cell_heap hG 9; have q10 := cell_heap hG 10; have q11 := cell_heap hG 11; have q12 := cell_heap hG 12
  have hgl : w1.heap.size < W8.heap.size := (Array.getElem?_eq_some_iff.1 hG).1
  have hzl : w.heap.size < W8.heap.size := (Array.getElem?_eq_some_iff.1 hZ).1
  by_cases hE : E9 = 0
  · subst hE
    cases hM : mayEv ⟨kd, sp, sc, dp, dc, sq, da, th, ta, ack, ep, ec, ht⟩
    · simp only [hM] at CM
      go_upto_region 7 with (first | (go_at_call 34; refine (C9 _ _ hR).mono ?_; rintro e w9 ⟨rfl, hb9⟩; have hG := cells_of hG hb9 hgl; have hZ := cells_of hZ hb9 hzl; have hbel := hbel.trans (hb9.mono hbel.size); have q0 := cell_heap hG 0; have q1 := cell_heap hG 1; have q2 := cell_heap hG 2; have q3 := cell_heap hG 3; have q4 := cell_heap hG 4; have q5 := cell_heap hG 5; have q6 := cell_heap hG 6; have q7 := cell_heap hG 7; have q8 := cell_heap hG 8; have q9 := cell_heap hG 9; have q10 := cell_heap hG 10; have q11 := cell_heap hG 11; have q12 := cell_heap hG 12) | (go_at_call 43; refine (CM _).mono ?_; rintro e w10 ⟨rfl, hb10⟩; have hG := cells_of hG hb10 (Nat.lt_of_lt_of_le hgl hb9.size); have hZ := cells_of hZ hb10 (Nat.lt_of_lt_of_le hzl hb9.size); have hbel := hbel.trans (hb10.mono hbel.size); have q0 := cell_heap hG 0; have q1 := cell_heap hG 1; have q2 := cell_heap hG 2; have q3 := cell_heap hG 3; have q4 := cell_heap hG 4; have q5 := cell_heap hG 5; have q6 := cell_heap hG 6; have q7 := cell_heap hG 7; have q8 := cell_heap hG 8; have q9 := cell_heap hG 9; have q10 := cell_heap hG 10; have q11 := cell_heap hG 11; have q12 := cell_heap hG 12))
      go_wp2_with (refine wpList_storeRowTo rfl (.tmp 2) (.tmp 20) 43 rfl (by kernel_rfl) rfl rfl hZ rfl (Ev.row_one _ _ _ _ _ _ _ _ _ _ _ _ _ ) ?_)
      have hZ : (World.setRow _ w.heap.size #[.int .i64 0, .string ⟨#[]⟩, .int .i64 0, .string ⟨#[]⟩, .int .i64 0, .int .i64 0, .string ⟨#[]⟩, .int .i64 0, .int .i64 0, .string ⟨#[]⟩, .string ⟨#[]⟩, .int .i64 0, .int .i64 0]).heap[w.heap.size]? = some (.cells #[.int .i64 0, .string ⟨#[]⟩, .int .i64 0, .string ⟨#[]⟩, .int .i64 0, .int .i64 0, .string ⟨#[]⟩, .int .i64 0, .int .i64 0, .string ⟨#[]⟩, .string ⟨#[]⟩, .int .i64 0, .int .i64 0] 43 (0, 0)) := setRow_heap _ _ _ _ _ _ hZ
      have hrd := run_loadVar_mid (P := Try.prog) _ w.heap.size 0 43 (#[.int .i64 0, .string ⟨#[]⟩, .int .i64 0, .string ⟨#[]⟩, .int .i64 0, .int .i64 0, .string ⟨#[]⟩, .int .i64 0, .int .i64 0, .string ⟨#[]⟩, .string ⟨#[]⟩, .int .i64 0, .int .i64 0] : Array Value).toList _ (rangeAt_row5 hZ) Try.underlying43 rfl (by kernel_rfl)
      refine bodyPost_ret (v := .tuple #[.agg #[.int .i64 0, .string ⟨#[]⟩, .int .i64 0, .string ⟨#[]⟩, .int .i64 0, .int .i64 0, .string ⟨#[]⟩, .int .i64 0, .int .i64 0, .string ⟨#[]⟩, .string ⟨#[]⟩, .int .i64 0, .int .i64 0], .int .i64 1]) ?_ rfl ?_
      · simp [results, Try.results57, asAddr, hrd]
        try rfl
      exact ⟨by rw [HD.out]; rw [if_pos trivial, hM]; rfl, below_setRow hbel (Nat.le_refl _) _⟩
    · simp only [hM] at CM
      go_upto_region 8 with (first | (go_at_call 34; refine (C9 _ _ hR).mono ?_; rintro e w9 ⟨rfl, hb9⟩; have hG := cells_of hG hb9 hgl; have hZ := cells_of hZ hb9 hzl; have hbel := hbel.trans (hb9.mono hbel.size); have q0 := cell_heap hG 0; have q1 := cell_heap hG 1; have q2 := cell_heap hG 2; have q3 := cell_heap hG 3; have q4 := cell_heap hG 4; have q5 := cell_heap hG 5; have q6 := cell_heap hG 6; have q7 := cell_heap hG 7; have q8 := cell_heap hG 8; have q9 := cell_heap hG 9; have q10 := cell_heap hG 10; have q11 := cell_heap hG 11; have q12 := cell_heap hG 12) | (go_at_call 43; refine (CM _).mono ?_; rintro e w10 ⟨rfl, hb10⟩; have hG := cells_of hG hb10 (Nat.lt_of_lt_of_le hgl hb9.size); have hZ := cells_of hZ hb10 (Nat.lt_of_lt_of_le hzl hb9.size); have hbel := hbel.trans (hb10.mono hbel.size); have q0 := cell_heap hG 0; have q1 := cell_heap hG 1; have q2 := cell_heap hG 2; have q3 := cell_heap hG 3; have q4 := cell_heap hG 4; have q5 := cell_heap hG 5; have q6 := cell_heap hG 6; have q7 := cell_heap hG 7; have q8 := cell_heap hG 8; have q9 := cell_heap hG 9; have q10 := cell_heap hG 10; have q11 := cell_heap hG 11; have q12 := cell_heap hG 12))
      go_wp2_with (refine wpList_storeRowTo rfl (.tmp 2) (.tmp 21) 43 rfl (by kernel_rfl) rfl rfl hZ rfl (Ev.row_one _ _ _ _ _ _ _ _ _ _ _ _ _ ) ?_)
      have hZ : (World.setRow _ w.heap.size #[.int .i64 kd, .string sp, .int .i64 sc, .string dp, .int .i64 dc, .int .i64 sq, .string da, .int .i64 th, .int .i64 ta, .string ack, .string ep, .int .i64 ec, .int .i64 ht]).heap[w.heap.size]? = some (.cells #[.int .i64 kd, .string sp, .int .i64 sc, .string dp, .int .i64 dc, .int .i64 sq, .string da, .int .i64 th, .int .i64 ta, .string ack, .string ep, .int .i64 ec, .int .i64 ht] 43 (0, 0)) := setRow_heap _ _ _ _ _ _ hZ
      have hrd := run_loadVar_mid (P := Try.prog) _ w.heap.size 0 43 (#[.int .i64 kd, .string sp, .int .i64 sc, .string dp, .int .i64 dc, .int .i64 sq, .string da, .int .i64 th, .int .i64 ta, .string ack, .string ep, .int .i64 ec, .int .i64 ht] : Array Value).toList _ (rangeAt_row5 hZ) Try.underlying43 rfl (by kernel_rfl)
      refine bodyPost_ret (v := .tuple #[.agg #[.int .i64 kd, .string sp, .int .i64 sc, .string dp, .int .i64 dc, .int .i64 sq, .string da, .int .i64 th, .int .i64 ta, .string ack, .string ep, .int .i64 ec, .int .i64 ht], .int .i64 0]) ?_ rfl ?_
      · simp [results, Try.results57, asAddr, hrd]
        try rfl
      exact ⟨by rw [HD.out]; rw [if_pos trivial, hM]; rfl, below_setRow hbel (Nat.le_refl _) _⟩
  · have hE0 : (E9 == 0) = false := beq_eq_false_iff_ne.2 hE
    go_upto_region 5 with (first | (go_at_call 34; refine (C9 _ _ hR).mono ?_; rintro e w9 ⟨rfl, hb9⟩; have hG := cells_of hG hb9 hgl; have hZ := cells_of hZ hb9 hzl; have hbel := hbel.trans (hb9.mono hbel.size); have q0 := cell_heap hG 0; have q1 := cell_heap hG 1; have q2 := cell_heap hG 2; have q3 := cell_heap hG 3; have q4 := cell_heap hG 4; have q5 := cell_heap hG 5; have q6 := cell_heap hG 6; have q7 := cell_heap hG 7; have q8 := cell_heap hG 8; have q9 := cell_heap hG 9; have q10 := cell_heap hG 10; have q11 := cell_heap hG 11; have q12 := cell_heap hG 12))
    go_wp2_with (refine wpList_storeRowTo rfl (.tmp 2) (.tmp 15) 43 rfl (by kernel_rfl) rfl rfl hZ rfl (Ev.row_one _ _ _ _ _ _ _ _ _ _ _ _ _ ) ?_)
    have hZ : (World.setRow _ w.heap.size #[.int .i64 0, .string ⟨#[]⟩, .int .i64 0, .string ⟨#[]⟩, .int .i64 0, .int .i64 0, .string ⟨#[]⟩, .int .i64 0, .int .i64 0, .string ⟨#[]⟩, .string ⟨#[]⟩, .int .i64 0, .int .i64 0]).heap[w.heap.size]? = some (.cells #[.int .i64 0, .string ⟨#[]⟩, .int .i64 0, .string ⟨#[]⟩, .int .i64 0, .int .i64 0, .string ⟨#[]⟩, .int .i64 0, .int .i64 0, .string ⟨#[]⟩, .string ⟨#[]⟩, .int .i64 0, .int .i64 0] 43 (0, 0)) := setRow_heap _ _ _ _ _ _ hZ
    have hrd := run_loadVar_mid (P := Try.prog) _ w.heap.size 0 43 (#[.int .i64 0, .string ⟨#[]⟩, .int .i64 0, .string ⟨#[]⟩, .int .i64 0, .int .i64 0, .string ⟨#[]⟩, .int .i64 0, .int .i64 0, .string ⟨#[]⟩, .string ⟨#[]⟩, .int .i64 0, .int .i64 0] : Array Value).toList _ (rangeAt_row5 hZ) Try.underlying43 rfl (by kernel_rfl)
    refine bodyPost_ret (v := .tuple #[.agg #[.int .i64 0, .string ⟨#[]⟩, .int .i64 0, .string ⟨#[]⟩, .int .i64 0, .int .i64 0, .string ⟨#[]⟩, .int .i64 0, .int .i64 0, .string ⟨#[]⟩, .string ⟨#[]⟩, .int .i64 0, .int .i64 0], .int .i64 E9]) ?_ rfl ?_
    · simp [results, Try.results57, asAddr, hrd]
      try rfl
    exact ⟨by rw [HD.out]; rw [if_neg hE]; rfl, below_setRow hbel (Nat.le_refl _) _⟩
end Go.Proofs.Ytcbacchelabljaa
