/- The next message of a transaction. -/
import Derived.Test.YthipnkbfdkmhaaaTxD
import Derived.BigRegion
import Derived.RegionTactic
import Derived.Deep.Upon
import Derived.Deep.MidRow
import Derived.WalkKit
import Derived.ProofKit
import Derived.Handy
import Derived.Below
import Derived.Lib.Hide
import Derived.IntWalk
import Derived.Outline
import Derived.WalkLawsBesides
import Derived.WalkSpells
namespace Go.Proofs.Ythipnkbfdkmhaaa
open Go.RowKit
attribute [local go_sem] strV
set_option linter.unusedVariables false
/-- Behind the reading of the next message: what it returns, where the reader stands. -/
def nextPost (b : Nat) (w : World) (s : ByteArray) (at_ : Int) (e : Ending) (w' : World) : Prop :=
  ∃ m : MsgV, e = .returned (.tuple #[.agg m.row, .int .i64 (txP s at_ 0).2.2]) ∧ m.ok w' ∧ m.heldM w' w.heap.size ∧ m.d = (txP s at_ 0).1 ∧ ((txP s at_ 0).2.2 = 0 → RAt b w' s (txP s at_ 0).2.1 0) ∧ Kept b w w'
set_option maxRecDepth 100000 in
set_option maxHeartbeats 6400000 in
theorem mnext_any (b : Nat) (w : World) (s : ByteArray) (at_ : Int) (hR : RAt b w s at_ 0) (hs : s.size ≤ 1000000000) :
    Calls Try.prog 79 #[.pointer (some ⟨b, 0, none⟩)] w fun e w' => nextPost b w s at_ e w' := by
  have C1 := fun W h => rtext_all b W s at_ 0 1048576 h hs
  have hsz := textG_size s at_ 0 1048576
  obtain ⟨⟨t, a1, e1⟩, h1⟩ : ∃ x, textG s at_ 0 1048576 = x := ⟨_, rfl⟩
  have hI : txP s at_ 0 = if e1 = 0 then ((decMsg t).1, a1, (decMsg t).2) else (MsgD.zero 0, a1, e1) := by
    unfold txP itemP
    simp only [h1]
  rw [h1] at hsz
  simp only at hsz
  simp only [h1] at C1
  have CD := fun W => msgDecode_any t W (by omega)
  have HI := Lib.hid hI
  clear h1 hI
  have hlt := hR.lt
  have hz0 := heap_push w #[.int .i64 0, .int .i64 0, .int .i64 0, .int .u8 0, .int .u8 0, .int .u8 0, .int .u8 0, .int .u8 0, .int .u8 0, .int .u8 0, .int .u8 0, .int .u8 0, .int .u8 0, .int .u8 0, .int .u8 0, .int .u8 0, .int .u8 0, .int .u8 0, .int .u8 0, .int .u8 0, .int .u8 0, .int .u8 0, .int .u8 0, .int .u8 0, .int .u8 0, .int .u8 0, .int .u8 0, .int .u8 0, .int .u8 0, .int .u8 0, .int .u8 0, .int .u8 0, .int .u8 0, .int .u8 0, .int .u8 0, .string ⟨#[]⟩, .int .i64 0, .string ⟨#[]⟩, .int .i64 0, .int .i64 0, .string ⟨#[]⟩, .int .i64 0, .int .i64 0, .string ⟨#[]⟩, .int .i64 0, .int .i64 0, .int .i64 0, .slice none 0 0, .int .i64 0, .slice none 0 0] 34
  have hbA : Below w.heap.size w (w.alloc (.cells #[.int .i64 0, .int .i64 0, .int .i64 0, .int .u8 0, .int .u8 0, .int .u8 0, .int .u8 0, .int .u8 0, .int .u8 0, .int .u8 0, .int .u8 0, .int .u8 0, .int .u8 0, .int .u8 0, .int .u8 0, .int .u8 0, .int .u8 0, .int .u8 0, .int .u8 0, .int .u8 0, .int .u8 0, .int .u8 0, .int .u8 0, .int .u8 0, .int .u8 0, .int .u8 0, .int .u8 0, .int .u8 0, .int .u8 0, .int .u8 0, .int .u8 0, .int .u8 0, .int .u8 0, .int .u8 0, .int .u8 0, .string ⟨#[]⟩, .int .i64 0, .string ⟨#[]⟩, .int .i64 0, .int .i64 0, .string ⟨#[]⟩, .int .i64 0, .int .i64 0, .string ⟨#[]⟩, .int .i64 0, .int .i64 0, .int .i64 0, .slice none 0 0, .int .i64 0, .slice none 0 0] 34)) := Below.alloc (Below.refl _ _) (Nat.le_refl _) _
  go_enter Try.func79, Try.ntmps79
  go_upto_region 1 with fail
  refine wp_nameE _ (fun W1 hX => ?_)
  have hZ : W1.heap[w.heap.size]? = some (.cells (MsgV.zero 0).row 34 (0, 0)) := by rw [hX, ← zero_row]; exact hz0
  have hb1 : Below w.heap.size w W1 := by rw [hX]; exact hbA
  have hR := hR.below hb1 hlt
  have hK : Kept b w W1 := Kept.of hb1
  have hzb : w.heap.size ≠ b := by omega
  clear hX hz0 hbA hb1
  go_upto_region 2 with (go_at_call 103; refine (C1 _ hR).mono ?_; rintro e w2 ⟨rfl, hR, hk⟩; have hZ := hk.row5 hZ hzb; have hK := hK.trans hk)
  have CX := rerr_any _ _ _ _ _ hR
  have hzl : w.heap.size < w2.heap.size := (Array.getElem?_eq_some_iff.1 hZ).1
  by_cases hE : e1 = 0
  · subst hE
    have HI2 : Hid (txP s at_ 0 = ((decMsg t).1, a1, (decMsg t).2)) := Lib.hid (by rw [HI.out, if_pos rfl])
    obtain ⟨ed, hed⟩ : ∃ x, (decMsg t).2 = x := ⟨_, rfl⟩
    unfold decPost at CD
    simp only [hed] at CD
    rw [hed] at HI2
    clear hed
    go_wp2_with (first | (go_at_call 116; refine CX.mono ?_; rintro e wx ⟨rfl, hwx⟩; obtain rfl : _ = wx := hwx.symm) | (go_at_call 18; refine (CD _).mono ?_; rintro e w3 ⟨m, rfl, hm, hmh, hmd, hb3⟩; have hZ := cells_of hZ hb3 hzl; have hR := hR.below hb3 hR.lt; have hK := hK.trans (Kept.of hb3)) | (refine wpList_storeRowTo (Z := m.row) rfl (.tmp 2) (.tmp 16) 34 rfl (by rw [MsgV.row_size]; kernel_rfl) rfl (by rfl) hZ (by simp only [MsgV.row_size]) (MsgV.row_one _) ?_))
    have hZ2 := setRow_heap _ _ _ m.row _ _ hZ
    have hrd := run_loadVar_mid (P := Try.prog) _ w.heap.size 0 34 m.row.toList _ (rangeAt_row5 hZ2) Try.underlying34 rfl (by rw [Array.length_toList, MsgV.row_size]; kernel_rfl)
    rw [Array.toArray_toList] at hrd
    refine bodyPost_ret (v := .tuple #[.agg m.row, .int .i64 ed]) ?_ rfl ?_
    · simp [results, Try.results79, asAddr, hrd]
      try rfl
    have hmh := hmh.same (SameT.setRow (cs := m.row) hzl) (SameT.setRow hzl)
    exact ⟨m, by rw [HI2.out], hm.held hmh, hmh.mono (Nat.le_of_lt hzl), by rw [HI2.out]; exact hmd, fun _ => by rw [HI2.out]; exact hR.setRow hzb _, hK.setRow (Nat.le_refl _) _⟩
  · have hE0 : (e1 == 0) = false := beq_eq_false_iff_ne.2 hE
    have HI2 : Hid (txP s at_ 0 = (MsgD.zero 0, a1, e1)) := Lib.hid (by rw [HI.out, if_neg hE])
    go_upto_region 4 with (go_at_call 116; refine CX.mono ?_; rintro e wx ⟨rfl, hwx⟩; obtain rfl : _ = wx := hwx.symm)
    go_step
    refine wpList_build0 rfl 34 rfl (build_msg0 _) ?_
    simp only [Act.put, List.setIfInBounds_toArray, List.set_cons_succ, List.set_cons_zero]
    go_wp2_with (refine wpList_storeRowTo (Z := (MsgV.zero 0).row) rfl (.tmp 2) (.tmp 12) 34 rfl (by rw [MsgV.row_size]; kernel_rfl) rfl (by rfl) hZ (by simp only [MsgV.row_size]) (MsgV.row_one _) ?_)
    have hZ2 := setRow_heap _ _ _ (MsgV.zero 0).row _ _ hZ
    have hrd := run_loadVar_mid (P := Try.prog) _ w.heap.size 0 34 (MsgV.zero 0).row.toList _ (rangeAt_row5 hZ2) Try.underlying34 rfl (by rw [Array.length_toList, MsgV.row_size]; kernel_rfl)
    rw [Array.toArray_toList] at hrd
    refine bodyPost_ret (v := .tuple #[.agg (MsgV.zero 0).row, .int .i64 e1]) ?_ rfl ?_
    · simp [results, Try.results79, asAddr, hrd]
      try rfl
    exact ⟨MsgV.zero 0, by rw [HI2.out], msg_ok_zero 0 _, ⟨lvsHeld.nil _ _, lvsHeld.nil _ _⟩, by rw [HI2.out]; rfl, fun h => absurd (by rw [HI2.out] at h; exact h) hE, hK.setRow (Nat.le_refl _) _⟩
end Go.Proofs.Ythipnkbfdkmhaaa
