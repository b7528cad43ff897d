/- Messages out of bytes. -/
import Derived.Test.YthipnkbfdkmhaaaMsg10
import Derived.BigRegion
import Derived.RegionTactic
import Derived.Deep.Upon
import Derived.Deep.MidRow
import Derived.WalkKit
import Derived.ProofKit
import Derived.Handy
import Derived.Below
import Derived.Lib.Hide
import Derived.IntWalk
import Derived.Outline
import Derived.WalkLawsBesides
import Derived.WalkSpells
namespace Go.Proofs.Ythipnkbfdkmhaaa
open Go.RowKit
attribute [local go_sem] strV
set_option linter.unusedVariables false
theorem msgRead_any (b : Nat) (w : World) (s : ByteArray) (at_ err : Int) (h : RAt b w s at_ err) (hs : s.size ≤ 1000000000) (hp : 0 ≤ at_ ∧ at_ ≤ s.size) :
    Calls Try.prog 57 #[.pointer (some ⟨b, 0, none⟩)] w fun e w' => msgPost b w s (msgP s at_ err) e w' := by
  obtain ⟨⟨kd, a1, e1⟩, h1⟩ : ∃ t, numG s at_ err 1 5 = t := ⟨_, rfl⟩
  by_cases k1 : kd = 1
  · subst k1; exact msgRead_1 b w s at_ err a1 e1 h1 h hs hp
  by_cases k3 : kd = 3
  · subst k3; exact msgRead_3 b w s at_ err a1 e1 h1 h hs hp
  by_cases k4 : kd = 4
  · subst k4; exact msgRead_4 b w s at_ err a1 e1 h1 h hs hp
  by_cases k5 : kd = 5
  · subst k5; exact msgRead_5 b w s at_ err a1 e1 h1 h hs hp
  exact msgRead_E b w s at_ err kd a1 e1 h1 k1 k3 k4 k5 h hs hp
theorem build_msg0 (W : World) : (Instr.build 34 #[]).run Try.prog W = .ok (.agg (MsgV.zero 0).row) W := by kernel_rfl
theorem wpList_build0 {P : Program} {ops : Array Oper} {rest : List Oper} {op : Oper} {a : Act} {w : World} {Q : Exit → Act → World → Prop} (hgd : op.guard = none) (t : TypeId) (ho : op.op = .build t #[]) {v : Value}
    (hrun : (Instr.build t #[]).run P w = .ok v w) (h : wpList P ops Q rest (a.put op.dst v) w) : wpList P ops Q (op :: rest) a w :=
  wpList_plain hgd fun _ hK => by
    unfold Oper.wp
    simp [execOp, ho, hrun, Result.andThen]
    exact hK _ _ h
theorem zero_d : (MsgV.zero 0).d = MsgD.zero 0 := rfl
/-- Behind the decoding of a message: what it returns. -/
def decPost (w : World) (v : ByteArray) (e : Ending) (w' : World) : Prop :=
  ∃ m : MsgV, e = .returned (.tuple #[.agg m.row, .int .i64 (decMsg v).2]) ∧ m.ok w' ∧ m.heldM w' w.heap.size ∧ m.d = (decMsg v).1 ∧ Below w.heap.size w w'
set_option maxRecDepth 100000 in
set_option maxHeartbeats 6400000 in
theorem msgDecode_any (v : ByteArray) (w : World) (hv : v.size ≤ 1000000000) :
    Calls Try.prog 18 #[.string v] w fun e w' => decPost w v e w' := by
  have CR := fun b W h => msgRead_any b W v 0 0 h hv ⟨by decide, by omega⟩
  obtain ⟨⟨md, a1, e1⟩, hX⟩ : ∃ t, msgP v 0 0 = t := ⟨_, rfl⟩
  have hD : decMsg v = if endF v a1 e1 = 0 then (bif mayD md then (md, 0) else (MsgD.zero 0, 1)) else (MsgD.zero 0, endF v a1 e1) := by
    unfold decMsg decP
    simp only [hX]
  simp only [hX] at CR
  have HD := Lib.hid hD
  clear hX hD
  have hz0 := heap_push w #[.int .i64 0, .int .i64 0, .int .i64 0, .int .u8 0, .int .u8 0, .int .u8 0, .int .u8 0, .int .u8 0, .int .u8 0, .int .u8 0, .int .u8 0, .int .u8 0, .int .u8 0, .int .u8 0, .int .u8 0, .int .u8 0, .int .u8 0, .int .u8 0, .int .u8 0, .int .u8 0, .int .u8 0, .int .u8 0, .int .u8 0, .int .u8 0, .int .u8 0, .int .u8 0, .int .u8 0, .int .u8 0, .int .u8 0, .int .u8 0, .int .u8 0, .int .u8 0, .int .u8 0, .int .u8 0, .int .u8 0, .string ⟨#[]⟩, .int .i64 0, .string ⟨#[]⟩, .int .i64 0, .int .i64 0, .string ⟨#[]⟩, .int .i64 0, .int .i64 0, .string ⟨#[]⟩, .int .i64 0, .int .i64 0, .int .i64 0, .slice none 0 0, .int .i64 0, .slice none 0 0] 34
  have hbA : Below w.heap.size w (w.alloc (.cells #[.int .i64 0, .int .i64 0, .int .i64 0, .int .u8 0, .int .u8 0, .int .u8 0, .int .u8 0, .int .u8 0, .int .u8 0, .int .u8 0, .int .u8 0, .int .u8 0, .int .u8 0, .int .u8 0, .int .u8 0, .int .u8 0, .int .u8 0, .int .u8 0, .int .u8 0, .int .u8 0, .int .u8 0, .int .u8 0, .int .u8 0, .int .u8 0, .int .u8 0, .int .u8 0, .int .u8 0, .int .u8 0, .int .u8 0, .int .u8 0, .int .u8 0, .int .u8 0, .int .u8 0, .int .u8 0, .int .u8 0, .string ⟨#[]⟩, .int .i64 0, .string ⟨#[]⟩, .int .i64 0, .int .i64 0, .string ⟨#[]⟩, .int .i64 0, .int .i64 0, .string ⟨#[]⟩, .int .i64 0, .int .i64 0, .int .i64 0, .slice none 0 0, .int .i64 0, .slice none 0 0] 34)) := Below.alloc (Below.refl _ _) (Nat.le_refl _) _
  go_enter Try.func18, Try.ntmps18
  go_upto_region 1 with fail
  refine wp_nameE _ (fun W1 hX => ?_)
  have hZ : W1.heap[w.heap.size]? = some (.cells (MsgV.zero 0).row 34 (0, 0)) := by rw [hX, ← zero_row]; exact hz0
  have hbel : Below w.heap.size w W1 := by rw [hX]; exact hbA
  clear hX hz0 hbA
  have hzl : w.heap.size < W1.heap.size := (Array.getElem?_eq_some_iff.1 hZ).1
  go_upto_region 2 with (go_at_call 56; refine (rof_any v _).mono ?_; rintro e wb ⟨rfl, hR, hb⟩)
  obtain ⟨r, hr⟩ : ∃ r, W1.heap.size = r := ⟨_, rfl⟩
  have hZ := cells_of hZ hb hzl
  have hbel := hbel.trans (hb.mono hbel.size)
  simp only [hr] at hR hzl ⊢
  have hzr : w.heap.size ≠ r := by omega
  have hrl := hR.lt
  clear hb hr
  go_upto_region 3 with (first | (go_at_call 57; refine (CR _ _ hR).mono ?_; rintro e w2 ⟨m, rfl, hm, hmh, hmd, hR, hk⟩; have hrl9 := hrl; have hZ := hk.row5 hZ hzr; have hrl := hR.lt; have hbel := hbel.trans (hk.below (by omega) hbel.size)) | (refine wpList_storeRowTo (Z := m.row) rfl (.tmp 5) (.tmp 10) 34 rfl (by rw [MsgV.row_size]; kernel_rfl) rfl (by rfl) (heap_push _ _ _) (by rw [MsgV.row_size]; rfl) (MsgV.row_one _) ?_))
  refine wp_nameE _ (fun W3 hX => ?_)
  have hb : Below w2.heap.size w2 W3 := by rw [hX]; exact below_setRow (Below.alloc (Below.refl _ _) (Nat.le_refl _) _) (Nat.le_refl _) _
  have hG : W3.heap[w2.heap.size]? = some (.cells m.row 34 (0, 0)) := by rw [hX]; exact setRow_heap _ _ _ _ _ _ (heap_push _ _ _)
  have hzl := Nat.lt_trans hzl hrl
  have hm := hm.below hb
  have hmh := hmh.same (SameT.below hb) (SameT.below hb)
  obtain ⟨Bm, hBm⟩ : ∃ x, wb.heap.size = x := ⟨_, rfl⟩
  have hBz : w.heap.size < Bm := by omega
  rw [hBm] at hmh
  have hZ := cells_of hZ hb (by omega)
  have hR := hR.below hb hrl
  have hbel := hbel.trans (hb.mono hbel.size)
  clear hX hb
  obtain ⟨g, hgg⟩ : ∃ g, w2.heap.size = g := ⟨_, rfl⟩
  simp only [hgg] at hG hrl ⊢
  have hgz : g ≠ w.heap.size := by omega
  clear hgg CR
  have CE := rend_any _ _ _ _ _ hR
  obtain ⟨E9, h9⟩ : ∃ E, endF v a1 e1 = E := ⟨_, rfl⟩
  have hD := HD.out
  rw [h9] at hD CE
  have HD := Lib.hid hD
  clear hD h9
  have hgl : g < W3.heap.size := (Array.getElem?_eq_some_iff.1 hG).1
  have hwg : w.heap.size < g := by omega
  by_cases hE : E9 = 0
  · subst hE
    have CM := fun W (hb : Below W3.heap.size W3 W) => msgMay_any m W (hm.below hb)
    rw [may_eq, hmd] at CM
    cases hM : mayD md
    · simp only [hM] at CM
      have hDv : Hid (decMsg v = (MsgD.zero 0, 1)) := Lib.hid (by rw [HD.out, if_pos rfl, hM]; rfl)
      go_upto_region 7 with (first | (refine wpList_load_mid rfl 34 (.tmp 5) rfl g 0 rfl m.row.toList _ (rangeAt_row5 hG) Try.underlying34 rfl (msg_info _) ?_; rw [Array.toArray_toList]) | (go_at_call 58; refine CE.mono ?_; rintro e w5 ⟨rfl, hb⟩; have hb5 := hb; have hZ := cells_of hZ hb (by omega); have hG := cells_of hG hb hgl; have hbel := hbel.trans (hb.mono hbel.size)) | (go_at_call 17; refine (CM _ hb5).mono ?_; rintro e w6 ⟨rfl, hb⟩; have hb6 := hb; have h5s := hb5.size; have hZ := cells_of hZ hb (by omega); have hG := cells_of hG hb (by omega); have hbel := hbel.trans (hb.mono hbel.size)))
      go_step
      refine wpList_build0 rfl 34 rfl (build_msg0 _) ?_
      simp only [Act.put, List.setIfInBounds_toArray, List.set_cons_succ, List.set_cons_zero]
      go_wp2_with (refine wpList_storeRowTo (Z := (MsgV.zero 0).row) rfl (.tmp 2) (.tmp 20) 34 rfl (by rw [MsgV.row_size]; kernel_rfl) rfl (by rfl) hZ (by simp only [MsgV.row_size]) (MsgV.row_one _) ?_)
      have hZ2 := setRow_heap _ _ _ (MsgV.zero 0).row _ _ hZ
      have hrd := run_loadVar_mid (P := Try.prog) _ w.heap.size 0 34 (MsgV.zero 0).row.toList _ (rangeAt_row5 hZ2) Try.underlying34 rfl (by rw [Array.length_toList, MsgV.row_size]; kernel_rfl)
      rw [Array.toArray_toList] at hrd
      refine bodyPost_ret (v := .tuple #[.agg (MsgV.zero 0).row, .int .i64 1]) ?_ rfl ?_
      · simp [results, Try.results18, asAddr, hrd]
        try rfl
      exact ⟨MsgV.zero 0, by rw [hDv.out], msg_ok_zero 0 _, ⟨lvsHeld.nil _ _, lvsHeld.nil _ _⟩, by rw [hDv.out]; rfl, below_setRow hbel (Nat.le_refl _) _⟩
    · simp only [hM] at CM
      have hDv : Hid (decMsg v = (md, 0)) := Lib.hid (by rw [HD.out, if_pos rfl, hM]; rfl)
      go_wp2_with (first | (refine wpList_load_mid rfl 34 (.tmp 5) rfl g 0 rfl m.row.toList _ (rangeAt_row5 hG) Try.underlying34 rfl (msg_info _) ?_; rw [Array.toArray_toList]) | (go_at_call 58; refine CE.mono ?_; rintro e w5 ⟨rfl, hb⟩; have hb5 := hb; have hZ := cells_of hZ hb (by omega); have hG := cells_of hG hb hgl; have hbel := hbel.trans (hb.mono hbel.size)) | (go_at_call 17; refine (CM _ hb5).mono ?_; rintro e w6 ⟨rfl, hb⟩; have hb6 := hb; have h5s := hb5.size; have hZ := cells_of hZ hb (by omega); have hG := cells_of hG hb (by omega); have hbel := hbel.trans (hb.mono hbel.size)) | (refine wpList_storeRowTo (Z := m.row) rfl (.tmp 2) (.tmp 21) 34 rfl (by rw [MsgV.row_size]; kernel_rfl) rfl (by rfl) hZ (by simp only [MsgV.row_size]) (MsgV.row_one _) ?_))
      have hZ2 := setRow_heap _ _ _ m.row _ _ hZ
      have hrd := run_loadVar_mid (P := Try.prog) _ w.heap.size 0 34 m.row.toList _ (rangeAt_row5 hZ2) Try.underlying34 rfl (by rw [Array.length_toList, MsgV.row_size]; kernel_rfl)
      rw [Array.toArray_toList] at hrd
      refine bodyPost_ret (v := .tuple #[.agg m.row, .int .i64 0]) ?_ rfl ?_
      · simp [results, Try.results18, asAddr, hrd]
        try rfl
      have hb56 := hb5.trans (hb6.mono hb5.size)
      have hmh := (hmh.same (SameT.below hb56) (SameT.below hb56)).same (SameT.setRow (cs := m.row) hBz) (SameT.setRow hBz)
      exact ⟨m, by rw [hDv.out], hm.held hmh, hmh.mono (Nat.le_of_lt hBz), by rw [hDv.out]; exact hmd, below_setRow hbel (Nat.le_refl _) _⟩
  · have hE0 : (E9 == 0) = false := beq_eq_false_iff_ne.2 hE
    have hDv : Hid (decMsg v = (MsgD.zero 0, E9)) := Lib.hid (by rw [HD.out, if_neg hE])
    go_upto_region 5 with (go_at_call 58; refine CE.mono ?_; rintro e w5 ⟨rfl, hb⟩; have hZ := cells_of hZ hb (by omega); have hbel := hbel.trans (hb.mono hbel.size); clear hb)
    go_step
    refine wpList_build0 rfl 34 rfl (build_msg0 _) ?_
    simp only [Act.put, List.setIfInBounds_toArray, List.set_cons_succ, List.set_cons_zero]
    go_wp2_with (refine wpList_storeRowTo (Z := (MsgV.zero 0).row) rfl (.tmp 2) (.tmp 15) 34 rfl (by rw [MsgV.row_size]; kernel_rfl) rfl (by rfl) hZ (by simp only [MsgV.row_size]) (MsgV.row_one _) ?_)
    have hZ2 := setRow_heap _ _ _ (MsgV.zero 0).row _ _ hZ
    have hrd := run_loadVar_mid (P := Try.prog) _ w.heap.size 0 34 (MsgV.zero 0).row.toList _ (rangeAt_row5 hZ2) Try.underlying34 rfl (by rw [Array.length_toList, MsgV.row_size]; kernel_rfl)
    rw [Array.toArray_toList] at hrd
    refine bodyPost_ret (v := .tuple #[.agg (MsgV.zero 0).row, .int .i64 E9]) ?_ rfl ?_
    · simp [results, Try.results18, asAddr, hrd]
      try rfl
    exact ⟨MsgV.zero 0, by rw [hDv.out], msg_ok_zero 0 _, ⟨lvsHeld.nil _ _, lvsHeld.nil _ _⟩, by rw [hDv.out]; rfl, below_setRow hbel (Nat.le_refl _) _⟩
end Go.Proofs.Ythipnkbfdkmhaaa
