/- Blocks out of bytes. -/
import Derived.Test.YtcbacchelabljaaBlkP
import Derived.Test.YtcbacchelabljaaEvD
import Derived.WalkKit
import Derived.ProofKit
import Derived.Handy
import Derived.Below
import Derived.Lib.Hide
import Derived.IntWalk
import Derived.Outline
import Derived.WalkLawsBesides
import Derived.WalkSpells
namespace Go.Proofs.Ytcbacchelabljaa
open Go.RowKit
attribute [local go_sem] strV
set_option linter.unusedVariables false
theorem decEv_small {v : ByteArray} (hv : v.size ≤ maxLen) : (decEv v).1.small := by
  obtain ⟨h1, h2, h3⟩ := evG_size v 0 0
  unfold decEv
  simp only
  split
  · cases mayEv (evG v 0 0).1
    · exact ⟨Nat.zero_le _, Nat.zero_le _, Nat.zero_le _⟩
    · exact ⟨Nat.le_trans h1 hv, Nat.le_trans h2 hv, Nat.le_trans h3 hv⟩
  · exact ⟨Nat.zero_le _, Nat.zero_le _, Nat.zero_le _⟩
theorem evItem_small {s : ByteArray} (hs : s.size ≤ maxLen) (a e : Int) : (evItem s a e).1.small := by
  unfold evItem itemP
  simp only
  split
  · exact decEv_small (Nat.le_trans (textG_size _ _ _ _) hs)
  · exact ⟨Nat.zero_le _, Nat.zero_le _, Nat.zero_le _⟩
set_option maxRecDepth 100000 in
set_option maxHeartbeats 6400000 in
theorem bnext_any (b : Nat) (w : World) (s : ByteArray) (at_ : Int) (hR : RAt b w s at_ 0) (hs : s.size ≤ 1000000000) :
    Calls Try.prog 33 #[.pointer (some ⟨b, 0, none⟩)] w fun e w' => e = .returned (.tuple #[.agg (evItem s at_ 0).1.row, .int .i64 (evItem s at_ 0).2.2]) ∧ ((evItem s at_ 0).2.2 = 0 → RAt b w' s (evItem s at_ 0).2.1 0) ∧ RAt b w' s (textG s at_ 0 1000).2.1 (textG s at_ 0 1000).2.2 ∧ Kept b w w' := by
  have C1 := fun W h => rtext_all b W s at_ 0 1000 h hs
  have hsz := textG_size s at_ 0 1000
  obtain ⟨⟨t, a1, e1⟩, h1⟩ : ∃ x, textG s at_ 0 1000 = x := ⟨_, rfl⟩
  have hI : evItem s at_ 0 = if e1 = 0 then ((decEv t).1, a1, (decEv t).2) else (Ev.zero, a1, e1) := by
    unfold evItem itemP
    simp only [h1]
  rw [h1] at hsz
  simp only at hsz
  simp only [h1] at C1 ⊢
  have CD := fun W => decodeEv_any t W (by omega)
  have HI := Lib.hid hI
  clear h1 hI
  have hlt := hR.lt
  have hz0 := heap_push w #[.int .i64 0, .string ⟨#[]⟩, .int .i64 0, .string ⟨#[]⟩, .int .i64 0, .int .i64 0, .string ⟨#[]⟩, .int .i64 0, .int .i64 0, .string ⟨#[]⟩, .string ⟨#[]⟩, .int .i64 0, .int .i64 0] 43
  have hbA : Below w.heap.size w (w.alloc (.cells #[.int .i64 0, .string ⟨#[]⟩, .int .i64 0, .string ⟨#[]⟩, .int .i64 0, .int .i64 0, .string ⟨#[]⟩, .int .i64 0, .int .i64 0, .string ⟨#[]⟩, .string ⟨#[]⟩, .int .i64 0, .int .i64 0] 43)) := Below.alloc (Below.refl _ _) (Nat.le_refl _) _
  go_enter Try.func33, Try.ntmps33
  go_upto_region 1 with fail
  refine wp_nameE _ (fun W1 hX => ?_)
  have hZ : W1.heap[w.heap.size]? = some (.cells #[.int .i64 0, .string ⟨#[]⟩, .int .i64 0, .string ⟨#[]⟩, .int .i64 0, .int .i64 0, .string ⟨#[]⟩, .int .i64 0, .int .i64 0, .string ⟨#[]⟩, .string ⟨#[]⟩, .int .i64 0, .int .i64 0] 43 (0, 0)) := by rw [hX]; exact hz0
  have hb1 : Below w.heap.size w W1 := by rw [hX]; exact hbA
  have hR := hR.below hb1 hlt
  have hK : Kept b w W1 := Kept.of hb1
  have hzb : w.heap.size ≠ b := by omega
  clear hX hz0 hbA hb1
  go_upto_region 2 with (go_at_call 55; refine (C1 _ hR).mono ?_; rintro e w2 ⟨rfl, hR, hk⟩; have hZ := hk.row5 hZ hzb; have hK := hK.trans hk)
  have CX := rerr_any _ _ _ _ _ hR
  have hzl : w.heap.size < w2.heap.size := (Array.getElem?_eq_some_iff.1 hZ).1
  by_cases hE : e1 = 0
  · subst hE
    obtain ⟨⟨⟨kd, sp, sc, dp, dc, sq, da, th, ta, ack, ep, ec, eh⟩, ed⟩, hd⟩ : ∃ x, decEv t = x := ⟨_, rfl⟩
    simp only [hd, Ev.row] at CD
    have HI2 : Hid (evItem s at_ 0 = (⟨kd, sp, sc, dp, dc, sq, da, th, ta, ack, ep, ec, eh⟩, a1, ed)) := Lib.hid (by rw [HI.out, if_pos rfl, hd])
    clear hd
    go_wp2_with (first | (go_at_call 40; refine CX.mono ?_; rintro e wx ⟨rfl, hwx⟩; obtain rfl : _ = wx := hwx.symm) | (go_at_call 57; refine (CD _).mono ?_; rintro e w3 ⟨rfl, hb3⟩; have hZ := cells_of hZ hb3 hzl; have hR := hR.below hb3 hR.lt; have hK := hK.trans (Kept.of hb3)) | (refine wpList_storeRowTo (Z := #[.int .i64 kd, .string sp, .int .i64 sc, .string dp, .int .i64 dc, .int .i64 sq, .string da, .int .i64 th, .int .i64 ta, .string ack, .string ep, .int .i64 ec, .int .i64 eh]) rfl (.tmp 2) (.tmp 16) 43 rfl (by kernel_rfl) rfl (by rfl) hZ rfl (Ev.row_one _ _ _ _ _ _ _ _ _ _ _ _ _) ?_))
    have hZ : (World.setRow _ w.heap.size #[.int .i64 kd, .string sp, .int .i64 sc, .string dp, .int .i64 dc, .int .i64 sq, .string da, .int .i64 th, .int .i64 ta, .string ack, .string ep, .int .i64 ec, .int .i64 eh]).heap[w.heap.size]? = some (.cells #[.int .i64 kd, .string sp, .int .i64 sc, .string dp, .int .i64 dc, .int .i64 sq, .string da, .int .i64 th, .int .i64 ta, .string ack, .string ep, .int .i64 ec, .int .i64 eh] 43 (0, 0)) := setRow_heap _ _ _ _ _ _ hZ
    have hrd := run_loadVar_mid (P := Try.prog) _ w.heap.size 0 43 (#[.int .i64 kd, .string sp, .int .i64 sc, .string dp, .int .i64 dc, .int .i64 sq, .string da, .int .i64 th, .int .i64 ta, .string ack, .string ep, .int .i64 ec, .int .i64 eh] : Array Value).toList _ (rangeAt_row5 hZ) Try.underlying43 rfl (by kernel_rfl)
    refine bodyPost_ret (v := .tuple #[.agg #[.int .i64 kd, .string sp, .int .i64 sc, .string dp, .int .i64 dc, .int .i64 sq, .string da, .int .i64 th, .int .i64 ta, .string ack, .string ep, .int .i64 ec, .int .i64 eh], .int .i64 ed]) ?_ rfl ?_
    · simp [results, Try.results33, asAddr, hrd]
      try rfl
    exact ⟨by rw [HI2.out]; rfl, fun _ => by rw [HI2.out]; exact hR.setRow hzb _, hR.setRow hzb _, hK.setRow (Nat.le_refl _) _⟩
  · have hE0 : (e1 == 0) = false := beq_eq_false_iff_ne.2 hE
    have HI2 : Hid (evItem s at_ 0 = (Ev.zero, a1, e1)) := Lib.hid (by rw [HI.out, if_neg hE])
    go_wp2_with (first | (go_at_call 40; refine CX.mono ?_; rintro e wx ⟨rfl, hwx⟩; obtain rfl : _ = wx := hwx.symm) | (refine wpList_storeRowTo (Z := #[.int .i64 0, .string ⟨#[]⟩, .int .i64 0, .string ⟨#[]⟩, .int .i64 0, .int .i64 0, .string ⟨#[]⟩, .int .i64 0, .int .i64 0, .string ⟨#[]⟩, .string ⟨#[]⟩, .int .i64 0, .int .i64 0]) rfl (.tmp 2) (.tmp 12) 43 rfl (by kernel_rfl) rfl (by rfl) hZ rfl (Ev.row_one _ _ _ _ _ _ _ _ _ _ _ _ _) ?_))
    have hZ : (World.setRow _ w.heap.size #[.int .i64 0, .string ⟨#[]⟩, .int .i64 0, .string ⟨#[]⟩, .int .i64 0, .int .i64 0, .string ⟨#[]⟩, .int .i64 0, .int .i64 0, .string ⟨#[]⟩, .string ⟨#[]⟩, .int .i64 0, .int .i64 0]).heap[w.heap.size]? = some (.cells #[.int .i64 0, .string ⟨#[]⟩, .int .i64 0, .string ⟨#[]⟩, .int .i64 0, .int .i64 0, .string ⟨#[]⟩, .int .i64 0, .int .i64 0, .string ⟨#[]⟩, .string ⟨#[]⟩, .int .i64 0, .int .i64 0] 43 (0, 0)) := setRow_heap _ _ _ _ _ _ hZ
    have hrd := run_loadVar_mid (P := Try.prog) _ w.heap.size 0 43 (#[.int .i64 0, .string ⟨#[]⟩, .int .i64 0, .string ⟨#[]⟩, .int .i64 0, .int .i64 0, .string ⟨#[]⟩, .int .i64 0, .int .i64 0, .string ⟨#[]⟩, .string ⟨#[]⟩, .int .i64 0, .int .i64 0] : Array Value).toList _ (rangeAt_row5 hZ) Try.underlying43 rfl (by kernel_rfl)
    refine bodyPost_ret (v := .tuple #[.agg #[.int .i64 0, .string ⟨#[]⟩, .int .i64 0, .string ⟨#[]⟩, .int .i64 0, .int .i64 0, .string ⟨#[]⟩, .int .i64 0, .int .i64 0, .string ⟨#[]⟩, .string ⟨#[]⟩, .int .i64 0, .int .i64 0], .int .i64 e1]) ?_ rfl ?_
    · simp [results, Try.results33, asAddr, hrd]
      try rfl
    exact ⟨by rw [HI2.out]; rfl, fun h => absurd (by rw [HI2.out] at h; exact h) hE, hR.setRow hzb _, hK.setRow (Nat.le_refl _) _⟩
theorem own_far {w w' : World} {base : Nat} {e : TypeId} {size n : Nat} {v : Value} {xs : List Value} (h : w.ownsRow base e size v n xs) (hk : ∀ j, base ≤ j → j < w.heap.size → w'.heap[j]? = w.heap[j]?) : w'.ownsRow base e size v n xs := by
  obtain ⟨h1, h2⟩ := h
  refine ⟨h1, ?_⟩
  rcases h2 with h | ⟨g, cap, cur, h3, h4, h5, h6⟩
  · exact .inl h
  · exact .inr ⟨g, cap, cur, h3, h4, (hk g h4 (Array.getElem?_eq_some_iff.1 h5).1).trans h5, h6⟩
theorem Try.infoE : (Try.prog.info? 43).map (fun i => (i.zero, i.size, i.bytes)) = some (some (.agg #[.int .i64 0, .string ⟨#[]⟩, .int .i64 0, .string ⟨#[]⟩, .int .i64 0, .int .i64 0, .string ⟨#[]⟩, .int .i64 0, .int .i64 0, .string ⟨#[]⟩, .string ⟨#[]⟩, .int .i64 0, .int .i64 0]), 13, 144) := by kernel_rfl
end Go.Proofs.Ytcbacchelabljaa
