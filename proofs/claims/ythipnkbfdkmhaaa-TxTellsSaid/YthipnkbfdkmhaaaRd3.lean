/- The document's messages out of bytes, kind by kind. -/
import Derived.Test.YthipnkbfdkmhaaaRd2
import Derived.Test.YthipnkbfdkmhaaaGE
import Derived.Test.YthipnkbfdkmhaaaMsg11
import Derived.BigRegion
import Derived.RegionTactic
import Derived.Deep.Upon
import Derived.Deep.MidRow
import Derived.WalkKit
import Derived.ProofKit
import Derived.Handy
import Derived.Below
import Derived.Lib.Hide
import Derived.IntWalk
import Derived.Outline
import Derived.WalkLawsBesides
import Derived.WalkSpells
namespace Go.Proofs.Ythipnkbfdkmhaaa
open Go.RowKit
attribute [local go_sem] strV
set_option linter.unusedVariables false
theorem QAt.cells {b g : Nat} {w : World} {s : ByteArray} {A E : Int} (h : QAt b w s A E) (hne : g ≠ b) (o : Nat) (vs : List Value) : QAt b (w.setCells g o vs) s A E := by
  unfold QAt at h ⊢
  rw [setCells_oth vs o hne]; exact h
theorem numG_le {s : ByteArray} {a e : Int} : (numG s a e 1 5).1 ≤ 5 := by
  unfold numG
  by_cases he : e = 0
  · rw [if_pos he]
    unfold numF
    simp only
    by_cases hr : (nextS s.data.toList a).2.2 = 0
    · rw [if_pos hr]
      by_cases hv : (nextS s.data.toList a).1 < 1 ∨ 5 < (nextS s.data.toList a).1
      · rw [if_pos hv]; show (0:Int) ≤ 5; decide
      · rw [if_neg hv]; simp only; omega
    · rw [if_neg hr]; show (0:Int) ≤ 5; decide
  · rw [if_neg he]; show (0:Int) ≤ 5; decide
theorem endF_err {s : ByteArray} {a a' e : Int} (h : e = 0 → a = a') : endF s a e = endF s a' e := by
  unfold endF
  by_cases he : e = 0
  · rw [h he]
  · rw [if_neg he, if_neg he]
set_option maxRecDepth 100000 in
set_option maxHeartbeats 12800000 in
theorem refDec_1 (s : ByteArray) (w : World) (hs : s.size ≤ 1000000000) (a1 e1 : Int) (h1 : numG s 0 0 1 5 = (1, a1, e1)) :
    Calls Try.prog 21 #[.string s] w fun e w' => decPost w s e w' := by
  have hp : (0 : Int) ≤ 0 ∧ (0 : Int) ≤ s.size := ⟨by decide, by omega⟩
  have p1 := numG_in (err := 0) (least := 1) (most := 5) hp
  rw [h1] at p1
  simp only at p1
  have p2 := numG_in (err := e1) (least := 1) (most := 1099511627776) p1
  obtain ⟨⟨hh, a2, e2⟩, h2⟩ : ∃ t, numG s a1 e1 1 1099511627776 = t := ⟨_, rfl⟩
  rw [h2] at p2
  simp only at p2
  have C2 := fun b W h => qnumK_all b W s a1 e1 1 1099511627776 h hs
  simp only [h2] at C2
  have p3 := numG_in (err := e2) (least := 0) (most := 1099511627776) p2
  obtain ⟨⟨ht, a3, e3⟩, h3⟩ : ∃ t, numG s a2 e2 0 1099511627776 = t := ⟨_, rfl⟩
  rw [h3] at p3
  simp only at p3
  have C3 := fun b W h => qnumK_all b W s a2 e2 0 1099511627776 h hs
  simp only [h3] at C3
  have C4 := fun b W h => qhashK_all b W s a3 e3 h hs p3
  rw [hashP_G p3.1] at C4
  have p4 := hashP_in (e := e3) p3
  obtain ⟨⟨rt, a4, e4⟩, h4⟩ : ∃ t, hashP s a3 e3 = t := ⟨_, rfl⟩
  rw [h4] at p4
  simp only at p4
  simp only [h4] at C4
  have hE : msgP s 0 0 = (mk1 (hh, ht, rt), a4, e4) := by
    unfold msgP mapP seqP nP
    simp only [h1]
    unfold bodyP
    rw [if_pos rfl]
    unfold mapP seqP nP
    simp only [h2, h3, h4]
  obtain ⟨md, hmd9⟩ : ∃ x, mk1 (hh, ht, rt) = x := ⟨_, rfl⟩
  rw [hmd9] at hE
  have HMD := Lib.hid hmd9
  have HD : Hid (decMsg s = if endF s a4 e4 = 0 then (bif mayD md then (md, 0) else (MsgD.zero 0, 1)) else (MsgD.zero 0, endF s a4 e4)) := Lib.hid (by unfold decMsg decP; simp only [hE])
  have C1 := fun b W h => qnumK_all b W s 0 0 1 5 h hs
  simp only [h1] at C1
  clear hE h1 hmd9 h2 h3 h4
  have hz0 := al2_0 w (.cells #[.int .i64 0, .int .i64 0, .int .i64 0, .int .u8 0, .int .u8 0, .int .u8 0, .int .u8 0, .int .u8 0, .int .u8 0, .int .u8 0, .int .u8 0, .int .u8 0, .int .u8 0, .int .u8 0, .int .u8 0, .int .u8 0, .int .u8 0, .int .u8 0, .int .u8 0, .int .u8 0, .int .u8 0, .int .u8 0, .int .u8 0, .int .u8 0, .int .u8 0, .int .u8 0, .int .u8 0, .int .u8 0, .int .u8 0, .int .u8 0, .int .u8 0, .int .u8 0, .int .u8 0, .int .u8 0, .int .u8 0, .string ⟨#[]⟩, .int .i64 0, .string ⟨#[]⟩, .int .i64 0, .int .i64 0, .string ⟨#[]⟩, .int .i64 0, .int .i64 0, .string ⟨#[]⟩, .int .i64 0, .int .i64 0, .int .i64 0, .slice none 0 0, .int .i64 0, .slice none 0 0] 34) (.cells #[.string s, .int .i64 0, .int .i64 0] 96)
  have hg0 := al2_1 w (.cells #[.int .i64 0, .int .i64 0, .int .i64 0, .int .u8 0, .int .u8 0, .int .u8 0, .int .u8 0, .int .u8 0, .int .u8 0, .int .u8 0, .int .u8 0, .int .u8 0, .int .u8 0, .int .u8 0, .int .u8 0, .int .u8 0, .int .u8 0, .int .u8 0, .int .u8 0, .int .u8 0, .int .u8 0, .int .u8 0, .int .u8 0, .int .u8 0, .int .u8 0, .int .u8 0, .int .u8 0, .int .u8 0, .int .u8 0, .int .u8 0, .int .u8 0, .int .u8 0, .int .u8 0, .int .u8 0, .int .u8 0, .string ⟨#[]⟩, .int .i64 0, .string ⟨#[]⟩, .int .i64 0, .int .i64 0, .string ⟨#[]⟩, .int .i64 0, .int .i64 0, .string ⟨#[]⟩, .int .i64 0, .int .i64 0, .int .i64 0, .slice none 0 0, .int .i64 0, .slice none 0 0] 34) (.cells #[.string s, .int .i64 0, .int .i64 0] 96)
  have hbA := al2_below w (.cells #[.int .i64 0, .int .i64 0, .int .i64 0, .int .u8 0, .int .u8 0, .int .u8 0, .int .u8 0, .int .u8 0, .int .u8 0, .int .u8 0, .int .u8 0, .int .u8 0, .int .u8 0, .int .u8 0, .int .u8 0, .int .u8 0, .int .u8 0, .int .u8 0, .int .u8 0, .int .u8 0, .int .u8 0, .int .u8 0, .int .u8 0, .int .u8 0, .int .u8 0, .int .u8 0, .int .u8 0, .int .u8 0, .int .u8 0, .int .u8 0, .int .u8 0, .int .u8 0, .int .u8 0, .int .u8 0, .int .u8 0, .string ⟨#[]⟩, .int .i64 0, .string ⟨#[]⟩, .int .i64 0, .int .i64 0, .string ⟨#[]⟩, .int .i64 0, .int .i64 0, .string ⟨#[]⟩, .int .i64 0, .int .i64 0, .int .i64 0, .slice none 0 0, .int .i64 0, .slice none 0 0] 34) (.cells #[.string s, .int .i64 0, .int .i64 0] 96)
  go_enter Try.func21, Try.ntmps21
  go_upto_region 2 with fail
  refine wp_nameE _ (fun W1 hW => ?_)
  have hZ : W1.heap[w.heap.size]? = some (.cells (MsgV.zero 0).row 34 (0, 0)) := by rw [hW, ← zero_row]; exact hz0
  have hR : QAt (w.heap.size + 1) W1 s 0 0 := by rw [hW]; exact hg0
  have hbel : Below w.heap.size w W1 := by rw [hW]; exact hbA
  obtain ⟨b, hb9⟩ : ∃ b, w.heap.size + 1 = b := ⟨_, rfl⟩
  simp only [hb9] at hR ⊢
  have hzb : w.heap.size ≠ b := by omega
  have hwb : w.heap.size ≤ b := by omega
  clear hW hz0 hg0 hbA hb9
  iterate 6 go_step
  go_at_call 65
  refine (C1 _ _ hR).mono ?_
  rintro e w2 ⟨rfl, hR, hk⟩
  have hZ := hk.row5 hZ hzb
  have hbel := hbel.trans (hk.below hwb hbel.size)
  clear hk C1
  simp only []
  go_step
  refine wpList_build1 rfl 34 0 (.tmp 11) rfl rfl (build_msg 1 _) ?_
  simp only [Act.put, List.setIfInBounds_toArray, List.set_cons_succ, List.set_cons_zero]
  iterate 3 go_step
  refine wpList_storeRowTo (Z := (MsgV.zero 1).row) rfl (.tmp 5) (.tmp 12) 34 rfl (by rw [MsgV.row_size]; kernel_rfl) rfl (by rfl) (heap_push _ _ _) (by rw [MsgV.row_size]; rfl) (MsgV.row_one _) ?_
  go_step
  simp only [Act.put]
  go_upto_region 3 with fail
  refine wp_nameE _ (fun W3 hX => ?_)
  have hb3 : Below w2.heap.size w2 W3 := by rw [hX]; exact below_setRow (Below.alloc (Below.refl _ _) (Nat.le_refl _) _) (Nat.le_refl _) _
  have hG : W3.heap[w2.heap.size]? = some (.cells (MsgV.zero 1).row 34 (0, 0)) := by rw [hX]; exact setRow_heap _ _ _ _ _ _ (heap_push _ _ _)
  have hbl := hR.lt
  have hR := hR.below hb3 hR.lt
  have hZ := cells_of hZ hb3 (by omega)
  have hbel := hbel.trans (hb3.mono hbel.size)
  obtain ⟨g, hgg⟩ : ∃ g, w2.heap.size = g := ⟨_, rfl⟩
  rw [hgg] at hG
  simp only [hgg]
  have hgb : g ≠ b := by omega
  have hgz : g ≠ w.heap.size := by omega
  have hwg : w.heap.size ≤ g := by omega
  have hzg : w.heap.size < g := by omega
  have hblg : b < g := by omega
  have hgl : g < W3.heap.size := (Array.getElem?_eq_some_iff.1 hG).1
  clear hX hb3 hgg hbl
  have q0 := (cell_heap hG 0).trans (show _ = some (Value.int .i64 1) from rfl)
  have hG : W3.heap[g]? = some (.cells (⟨1, 0, 0, zeroM, ⟨#[]⟩, 0, ⟨#[]⟩, 0, 0, ⟨#[]⟩, 0, 0, ⟨#[]⟩, 0, 0, 0, none, 0, 0, [], 0, none, 0, 0, []⟩ : MsgV).row 34 (0, 0)) := hG
  go_upto_region 5 with (first | (go_at_call 65; refine (C2 _ _ hR).mono ?_; rintro e w1 ⟨rfl, hR, hk⟩; have hG := hk.row5 hG hgb; have hZ := hk.row5 hZ hzb; have hgl := Nat.lt_of_lt_of_le hgl hk.size; have hbel := hbel.trans (hk.below hwb hbel.size); have fk := frozen_heap hG 1; have mk : World.cell? _ ⟨g, 1, none⟩ = some (Value.int .i64 0) := (cell_heap hG 1).trans rfl))
  refine wp_nameE _ (fun W4 hX => ?_)
  have hR : QAt b W4 s a2 e2 := by rw [hX]; exact hR.put8 hgb _
  have hZ : W4.heap[w.heap.size]? = some (.cells (MsgV.zero 0).row 34 (0, 0)) := by rw [hX]; exact row_oth hZ hgz
  have hbel : Below w.heap.size w W4 := by rw [hX]; exact hbel.setCell (p := ⟨g, 1, none⟩) hwg _
  have hG : W4.heap[g]? = some (.cells (⟨1, hh, 0, zeroM, ⟨#[]⟩, 0, ⟨#[]⟩, 0, 0, ⟨#[]⟩, 0, 0, ⟨#[]⟩, 0, 0, 0, none, 0, 0, [], 0, none, 0, 0, []⟩ : MsgV).row 34 (0, 0)) := by rw [hX]; refine (row_put5 hG).trans ?_; unfold MsgV.row; rw [List.setIfInBounds_toArray]; rfl
  have hgl : g < W4.heap.size := (Array.getElem?_eq_some_iff.1 hG).1
  clear hX fk mk C2
  go_upto_region 6 with (first | (go_at_call 65; refine (C3 _ _ hR).mono ?_; rintro e w1 ⟨rfl, hR, hk⟩; have hG := hk.row5 hG hgb; have hZ := hk.row5 hZ hzb; have hgl := Nat.lt_of_lt_of_le hgl hk.size; have hbel := hbel.trans (hk.below hwb hbel.size); have fk := frozen_heap hG 2; have mk : World.cell? _ ⟨g, 2, none⟩ = some (Value.int .i64 0) := (cell_heap hG 2).trans rfl))
  refine wp_nameE _ (fun W5 hX => ?_)
  have hR : QAt b W5 s a3 e3 := by rw [hX]; exact hR.put8 hgb _
  have hZ : W5.heap[w.heap.size]? = some (.cells (MsgV.zero 0).row 34 (0, 0)) := by rw [hX]; exact row_oth hZ hgz
  have hbel : Below w.heap.size w W5 := by rw [hX]; exact hbel.setCell (p := ⟨g, 2, none⟩) hwg _
  have hG : W5.heap[g]? = some (.cells (⟨1, hh, ht, zeroM, ⟨#[]⟩, 0, ⟨#[]⟩, 0, 0, ⟨#[]⟩, 0, 0, ⟨#[]⟩, 0, 0, 0, none, 0, 0, [], 0, none, 0, 0, []⟩ : MsgV).row 34 (0, 0)) := by rw [hX]; refine (row_put5 hG).trans ?_; unfold MsgV.row; rw [List.setIfInBounds_toArray]; rfl
  have hgl : g < W5.heap.size := (Array.getElem?_eq_some_iff.1 hG).1
  clear hX fk mk C3
  have hone := hrow_one rt.1
  have hrs : (hrow rt.1).size = 32 := by rw [hrow_size]; exact rt.2
  go_upto_region 16 with (first | (go_at_call 66; refine (C4 _ _ hR).mono ?_; rintro e w1 ⟨rfl, hR, hk⟩; have hG := hk.row5 hG hgb; have hZ := hk.row5 hZ hzb; have hgl := Nat.lt_of_lt_of_le hgl hk.size; have hbel := hbel.trans (hk.below hwb hbel.size); have hth : World.there _ g 3 (hrow rt.1).size := (by rw [hrs]; exact there_row hG (by rw [MsgV.row_size]; omega))) | (refine wpList_store_mid rfl 23 (.tmp 27) (.tmp 25) rfl g 3 (hrow rt.1) rfl rfl hth (by rw [hrs]; kernel_rfl) hone ?_))
  refine wp_nameE _ (fun W6 hX => ?_)
  have hR : QAt b W6 s a4 e4 := by rw [hX]; exact QAt.cells hR hgb _ _
  have hZ : W6.heap[w.heap.size]? = some (.cells (MsgV.zero 0).row 34 (0, 0)) := by rw [hX, setCells_oth _ _ hgz]; exact hZ
  have hbel : Below w.heap.size w W6 := by rw [hX]; exact below_setCellsM hwg _ _ _ hbel
  have hG : W6.heap[g]? = some (.cells (⟨1, hh, ht, rt, ⟨#[]⟩, 0, ⟨#[]⟩, 0, 0, ⟨#[]⟩, 0, 0, ⟨#[]⟩, 0, 0, 0, none, 0, 0, [], 0, none, 0, 0, []⟩ : MsgV).row 34 (0, 0)) := by rw [hX]; exact root_put hG
  have hgl : g < W6.heap.size := (Array.getElem?_eq_some_iff.1 hG).1
  clear hX hth C4
  obtain ⟨RW, hRW⟩ : ∃ q : MsgV, (⟨1, hh, ht, rt, ⟨#[]⟩, 0, ⟨#[]⟩, 0, 0, ⟨#[]⟩, 0, 0, ⟨#[]⟩, 0, 0, 0, none, 0, 0, [], 0, none, 0, 0, []⟩ : MsgV) = q := ⟨_, rfl⟩
  rw [hRW] at hG
  have hm : RW.ok W6 := by rw [← hRW]; exact ⟨LvsAt.nil _ _, rfl, Nat.le_refl _, Nat.zero_le _, LvsAt.nil _ _, rfl, Nat.le_refl _, Nat.zero_le _, Nat.zero_le _, Nat.zero_le _⟩
  have hmh : RW.heldM W6 g := by rw [← hRW]; exact ⟨lvsHeld.nil _ _, lvsHeld.nil _ _⟩
  have hmd : e4 = 0 → RW.d = md := fun h0 => by rw [← HMD.out, ← hRW]; rfl
  have hee : e4 = e4 := rfl
  have hep : endF s a4 e4 = endF s a4 e4 := by rw [endF_err (a' := a4) (fun _ => rfl), hee]
  have HMDD := Lib.hid hmd
  have HEE := Lib.hid hee
  clear hRW hmd hee HMD
  have CE := qend_any _ _ _ _ _ hR
  rw [hep] at CE
  obtain ⟨E9, h9e⟩ : ∃ E, endF s a4 e4 = E := ⟨_, rfl⟩
  have hD := HD.out
  rw [h9e] at hD CE
  have H0 : Hid (E9 = 0 → e4 = 0) := Lib.hid fun h => by rw [← h9e, ← hep] at h; exact (endF_ok h).1
  have HD2 := Lib.hid hD
  clear hD h9e hep HD
  by_cases hE : E9 = 0
  · subst hE
    have hmd := HMDD.out (H0.out rfl)
    have CM := fun W (hb : Below W6.heap.size W6 W) => refMayMsg_any RW W (hm.below hb)
    rw [may_eq, hmd] at CM
    cases hM : mayD md
    · simp only [hM] at CM
      have hDv : Hid (decMsg s = (MsgD.zero 0, 1)) := Lib.hid (by rw [HD2.out, if_pos rfl, hM]; rfl)
      go_upto_region 20 with (first | (refine wpList_load_midG 34 (.tmp 5) rfl g 0 rfl RW.row.toList _ (rangeAt_row5 hG) Try.underlying34 rfl (msg_info _) (by first | rfl | (simp [Region.wanted, yielded, *]; done)) ?_; rw [Array.toArray_toList]) | (go_at_call 70; refine CE.mono ?_; rintro e w5 ⟨rfl, hb⟩; have hb5 := hb; have hZ := cells_of hZ hb (by omega); have hG := cells_of hG hb hgl; have hbel := hbel.trans (hb.mono hbel.size)) | (go_at_call 22; refine (CM _ hb5).mono ?_; rintro e w6 ⟨rfl, hb⟩; have hb6 := hb; have h5s := hb5.size; have hZ := cells_of hZ hb (by omega); have hbel := hbel.trans (hb.mono hbel.size)))
      go_step
      refine wpList_build0 rfl 34 rfl (build_msg0 _) ?_
      simp only [Act.put, List.setIfInBounds_toArray, List.set_cons_succ, List.set_cons_zero]
      go_wp2_with (refine wpList_storeRowTo (Z := (MsgV.zero 0).row) rfl (.tmp 2) (.tmp 66) 34 rfl (by rw [MsgV.row_size]; kernel_rfl) rfl (by rfl) hZ (by simp only [MsgV.row_size]) (MsgV.row_one _) ?_)
      have hZ2 := setRow_heap _ _ _ (MsgV.zero 0).row _ _ hZ
      have hrd := run_loadVar_mid (P := Try.prog) _ w.heap.size 0 34 (MsgV.zero 0).row.toList _ (rangeAt_row5 hZ2) Try.underlying34 rfl (by rw [Array.length_toList, MsgV.row_size]; kernel_rfl)
      rw [Array.toArray_toList] at hrd
      refine bodyPost_ret (v := .tuple #[.agg (MsgV.zero 0).row, .int .i64 1]) ?_ rfl ?_
      · simp [results, Try.results21, asAddr, hrd]
        try rfl
      exact ⟨MsgV.zero 0, by rw [hDv.out], msg_ok_zero 0 _, ⟨lvsHeld.nil _ _, lvsHeld.nil _ _⟩, by rw [hDv.out]; rfl, below_setRow hbel (Nat.le_refl _) _⟩
    · simp only [hM] at CM
      have hDv : Hid (decMsg s = (md, 0)) := Lib.hid (by rw [HD2.out, if_pos rfl, hM]; rfl)
      go_wp2_with (first | (refine wpList_load_midG 34 (.tmp 5) rfl g 0 rfl RW.row.toList _ (rangeAt_row5 hG) Try.underlying34 rfl (msg_info _) (by first | rfl | (simp [Region.wanted, yielded, *]; done)) ?_; rw [Array.toArray_toList]) | (refine wpList_load_mid rfl 34 (.tmp 5) rfl g 0 rfl RW.row.toList _ (rangeAt_row5 hG) Try.underlying34 rfl (msg_info _) ?_; rw [Array.toArray_toList]) | (go_at_call 70; refine CE.mono ?_; rintro e w5 ⟨rfl, hb⟩; have hb5 := hb; have hZ := cells_of hZ hb (by omega); have hG := cells_of hG hb hgl; have hbel := hbel.trans (hb.mono hbel.size)) | (go_at_call 22; refine (CM _ hb5).mono ?_; rintro e w6 ⟨rfl, hb⟩; have hb6 := hb; have h5s := hb5.size; have hZ := cells_of hZ hb (by omega); have hG := cells_of hG hb (by omega); have hbel := hbel.trans (hb.mono hbel.size)) | (refine wpList_storeRowTo (Z := RW.row) rfl (.tmp 2) (.tmp 68) 34 rfl (by rw [MsgV.row_size]; kernel_rfl) rfl (by rfl) hZ (by simp only [MsgV.row_size]) (MsgV.row_one _) ?_))
      have hZ2 := setRow_heap _ _ _ RW.row _ _ hZ
      have hrd := run_loadVar_mid (P := Try.prog) _ w.heap.size 0 34 RW.row.toList _ (rangeAt_row5 hZ2) Try.underlying34 rfl (by rw [Array.length_toList, MsgV.row_size]; kernel_rfl)
      rw [Array.toArray_toList] at hrd
      refine bodyPost_ret (v := .tuple #[.agg RW.row, .int .i64 0]) ?_ rfl ?_
      · simp [results, Try.results21, asAddr, hrd]
        try rfl
      have hb56 := hb5.trans (hb6.mono hb5.size)
      have hmh := (hmh.same (SameT.below hb56) (SameT.below hb56)).same (SameT.setRow (cs := RW.row) hzg) (SameT.setRow hzg)
      exact ⟨RW, by rw [hDv.out], hm.held hmh, hmh.mono (Nat.le_of_lt hzg), by rw [hDv.out]; exact hmd, below_setRow hbel (Nat.le_refl _) _⟩
  · have hE0 : (E9 == 0) = false := beq_eq_false_iff_ne.2 hE
    have hDv : Hid (decMsg s = (MsgD.zero 0, E9)) := Lib.hid (by rw [HD2.out, if_neg hE])
    go_upto_region 20 with (go_at_call 70; refine CE.mono ?_; rintro e w5 ⟨rfl, hb⟩; have hZ := cells_of hZ hb (by omega); have hbel := hbel.trans (hb.mono hbel.size); clear hb)
    go_step
    refine wpList_build0 rfl 34 rfl (build_msg0 _) ?_
    simp only [Act.put, List.setIfInBounds_toArray, List.set_cons_succ, List.set_cons_zero]
    go_wp2_with (refine wpList_storeRowTo (Z := (MsgV.zero 0).row) rfl (.tmp 2) (.tmp 66) 34 rfl (by rw [MsgV.row_size]; kernel_rfl) rfl (by rfl) hZ (by simp only [MsgV.row_size]) (MsgV.row_one _) ?_)
    have hZ2 := setRow_heap _ _ _ (MsgV.zero 0).row _ _ hZ
    have hrd := run_loadVar_mid (P := Try.prog) _ w.heap.size 0 34 (MsgV.zero 0).row.toList _ (rangeAt_row5 hZ2) Try.underlying34 rfl (by rw [Array.length_toList, MsgV.row_size]; kernel_rfl)
    rw [Array.toArray_toList] at hrd
    refine bodyPost_ret (v := .tuple #[.agg (MsgV.zero 0).row, .int .i64 E9]) ?_ rfl ?_
    · simp [results, Try.results21, asAddr, hrd]
      try rfl
    exact ⟨MsgV.zero 0, by rw [hDv.out], msg_ok_zero 0 _, ⟨lvsHeld.nil _ _, lvsHeld.nil _ _⟩, by rw [hDv.out]; rfl, below_setRow hbel (Nat.le_refl _) _⟩
set_option maxRecDepth 100000 in
set_option maxHeartbeats 12800000 in
theorem refDec_3 (s : ByteArray) (w : World) (hs : s.size ≤ 1000000000) (a1 e1 : Int) (h1 : numG s 0 0 1 5 = (3, a1, e1)) :
    Calls Try.prog 21 #[.string s] w fun e w' => decPost w s e w' := by
  have hp : (0 : Int) ≤ 0 ∧ (0 : Int) ≤ s.size := ⟨by decide, by omega⟩
  have p1 := numG_in (err := 0) (least := 1) (most := 5) hp
  rw [h1] at p1
  simp only at p1
  have C2 := fun b W h => rdPk_any b W s a1 e1 h hs
  have p2 := pkG_in (e := e1) p1
  have z2 := pkG_size s a1 e1
  obtain ⟨⟨⟨⟨sp, sc⟩, ⟨dp, dc⟩, sq, da, th, ta⟩, a2, e2⟩, h2⟩ : ∃ t, pkP s a1 e1 = t := ⟨_, rfl⟩
  have gq := h2
  rw [pkP_eq] at gq
  simp only [Prod.mk.injEq] at gq
  obtain ⟨⟨⟨g1, g2⟩, ⟨g3, g4⟩, g5, g6, g7, g8⟩, g9, g10⟩ := gq
  simp only [g1, g2, g3, g4, g5, g6, g7, g8, g9, g10] at C2
  rw [g9] at p2
  rw [g1, g3] at z2
  clear g1 g2 g3 g4 g5 g6 g7 g8 g9 g10
  have zs := z2.1
  have zd := z2.2
  clear z2
  have p3 := textG_in (err := e2) (most := 32) p2
  obtain ⟨⟨ack, a3, e3⟩, h3⟩ : ∃ t, textG s a2 e2 32 = t := ⟨_, rfl⟩
  rw [h3] at p3
  simp only at p3
  have C3 := fun b W h => qtextK_all b W s a2 e2 32 h hs
  simp only [h3] at C3
  have p4 := numG_in (err := e3) (least := 1) (most := 1099511627776) p3
  obtain ⟨⟨he, a4, e4⟩, h4⟩ : ∃ t, numG s a3 e3 1 1099511627776 = t := ⟨_, rfl⟩
  rw [h4] at p4
  simp only at p4
  have C4 := fun b W h => qnumK_all b W s a3 e3 1 1099511627776 h hs
  simp only [h4] at C4
  have C5 := fun b W h => rdPf_any b W s a4 e4 h hs p4
  obtain ⟨⟨P5, a5, e5⟩, h5⟩ : ∃ t, pfP s a4 e4 = t := ⟨_, rfl⟩
  unfold rdPfPost at C5
  simp only [h5] at C5
  have hE : msgP s 0 0 = (mk3 (((sp, sc), (dp, dc), sq, da, th, ta), ack, he, P5), a5, e5) := by
    unfold msgP mapP seqP nP
    simp only [h1]
    unfold bodyP
    rw [if_neg (by decide), if_pos rfl]
    unfold mapP seqP nP tP
    simp only [h2, h3, h4, h5]
  obtain ⟨md, hmd9⟩ : ∃ x, mk3 (((sp, sc), (dp, dc), sq, da, th, ta), ack, he, P5) = x := ⟨_, rfl⟩
  rw [hmd9] at hE
  have HMD := Lib.hid hmd9
  have HD : Hid (decMsg s = if endF s a5 e5 = 0 then (bif mayD md then (md, 0) else (MsgD.zero 0, 1)) else (MsgD.zero 0, endF s a5 e5)) := Lib.hid (by unfold decMsg decP; simp only [hE])
  have C1 := fun b W h => qnumK_all b W s 0 0 1 5 h hs
  simp only [h1] at C1
  clear hE h1 hmd9 h2 h3 h4 h5
  have hz0 := al2_0 w (.cells #[.int .i64 0, .int .i64 0, .int .i64 0, .int .u8 0, .int .u8 0, .int .u8 0, .int .u8 0, .int .u8 0, .int .u8 0, .int .u8 0, .int .u8 0, .int .u8 0, .int .u8 0, .int .u8 0, .int .u8 0, .int .u8 0, .int .u8 0, .int .u8 0, .int .u8 0, .int .u8 0, .int .u8 0, .int .u8 0, .int .u8 0, .int .u8 0, .int .u8 0, .int .u8 0, .int .u8 0, .int .u8 0, .int .u8 0, .int .u8 0, .int .u8 0, .int .u8 0, .int .u8 0, .int .u8 0, .int .u8 0, .string ⟨#[]⟩, .int .i64 0, .string ⟨#[]⟩, .int .i64 0, .int .i64 0, .string ⟨#[]⟩, .int .i64 0, .int .i64 0, .string ⟨#[]⟩, .int .i64 0, .int .i64 0, .int .i64 0, .slice none 0 0, .int .i64 0, .slice none 0 0] 34) (.cells #[.string s, .int .i64 0, .int .i64 0] 96)
  have hg0 := al2_1 w (.cells #[.int .i64 0, .int .i64 0, .int .i64 0, .int .u8 0, .int .u8 0, .int .u8 0, .int .u8 0, .int .u8 0, .int .u8 0, .int .u8 0, .int .u8 0, .int .u8 0, .int .u8 0, .int .u8 0, .int .u8 0, .int .u8 0, .int .u8 0, .int .u8 0, .int .u8 0, .int .u8 0, .int .u8 0, .int .u8 0, .int .u8 0, .int .u8 0, .int .u8 0, .int .u8 0, .int .u8 0, .int .u8 0, .int .u8 0, .int .u8 0, .int .u8 0, .int .u8 0, .int .u8 0, .int .u8 0, .int .u8 0, .string ⟨#[]⟩, .int .i64 0, .string ⟨#[]⟩, .int .i64 0, .int .i64 0, .string ⟨#[]⟩, .int .i64 0, .int .i64 0, .string ⟨#[]⟩, .int .i64 0, .int .i64 0, .int .i64 0, .slice none 0 0, .int .i64 0, .slice none 0 0] 34) (.cells #[.string s, .int .i64 0, .int .i64 0] 96)
  have hbA := al2_below w (.cells #[.int .i64 0, .int .i64 0, .int .i64 0, .int .u8 0, .int .u8 0, .int .u8 0, .int .u8 0, .int .u8 0, .int .u8 0, .int .u8 0, .int .u8 0, .int .u8 0, .int .u8 0, .int .u8 0, .int .u8 0, .int .u8 0, .int .u8 0, .int .u8 0, .int .u8 0, .int .u8 0, .int .u8 0, .int .u8 0, .int .u8 0, .int .u8 0, .int .u8 0, .int .u8 0, .int .u8 0, .int .u8 0, .int .u8 0, .int .u8 0, .int .u8 0, .int .u8 0, .int .u8 0, .int .u8 0, .int .u8 0, .string ⟨#[]⟩, .int .i64 0, .string ⟨#[]⟩, .int .i64 0, .int .i64 0, .string ⟨#[]⟩, .int .i64 0, .int .i64 0, .string ⟨#[]⟩, .int .i64 0, .int .i64 0, .int .i64 0, .slice none 0 0, .int .i64 0, .slice none 0 0] 34) (.cells #[.string s, .int .i64 0, .int .i64 0] 96)
  go_enter Try.func21, Try.ntmps21
  go_upto_region 2 with fail
  refine wp_nameE _ (fun W1 hW => ?_)
  have hZ : W1.heap[w.heap.size]? = some (.cells (MsgV.zero 0).row 34 (0, 0)) := by rw [hW, ← zero_row]; exact hz0
  have hR : QAt (w.heap.size + 1) W1 s 0 0 := by rw [hW]; exact hg0
  have hbel : Below w.heap.size w W1 := by rw [hW]; exact hbA
  obtain ⟨b, hb9⟩ : ∃ b, w.heap.size + 1 = b := ⟨_, rfl⟩
  simp only [hb9] at hR ⊢
  have hzb : w.heap.size ≠ b := by omega
  have hwb : w.heap.size ≤ b := by omega
  clear hW hz0 hg0 hbA hb9
  iterate 6 go_step
  go_at_call 65
  refine (C1 _ _ hR).mono ?_
  rintro e w2 ⟨rfl, hR, hk⟩
  have hZ := hk.row5 hZ hzb
  have hbel := hbel.trans (hk.below hwb hbel.size)
  clear hk C1
  simp only []
  go_step
  refine wpList_build1 rfl 34 0 (.tmp 11) rfl rfl (build_msg 3 _) ?_
  simp only [Act.put, List.setIfInBounds_toArray, List.set_cons_succ, List.set_cons_zero]
  iterate 3 go_step
  refine wpList_storeRowTo (Z := (MsgV.zero 3).row) rfl (.tmp 5) (.tmp 12) 34 rfl (by rw [MsgV.row_size]; kernel_rfl) rfl (by rfl) (heap_push _ _ _) (by rw [MsgV.row_size]; rfl) (MsgV.row_one _) ?_
  go_step
  simp only [Act.put]
  go_upto_region 3 with fail
  refine wp_nameE _ (fun W3 hX => ?_)
  have hb3 : Below w2.heap.size w2 W3 := by rw [hX]; exact below_setRow (Below.alloc (Below.refl _ _) (Nat.le_refl _) _) (Nat.le_refl _) _
  have hG : W3.heap[w2.heap.size]? = some (.cells (MsgV.zero 3).row 34 (0, 0)) := by rw [hX]; exact setRow_heap _ _ _ _ _ _ (heap_push _ _ _)
  have hbl := hR.lt
  have hR := hR.below hb3 hR.lt
  have hZ := cells_of hZ hb3 (by omega)
  have hbel := hbel.trans (hb3.mono hbel.size)
  obtain ⟨g, hgg⟩ : ∃ g, w2.heap.size = g := ⟨_, rfl⟩
  rw [hgg] at hG
  simp only [hgg]
  have hgb : g ≠ b := by omega
  have hgz : g ≠ w.heap.size := by omega
  have hwg : w.heap.size ≤ g := by omega
  have hzg : w.heap.size < g := by omega
  have hblg : b < g := by omega
  have hgl : g < W3.heap.size := (Array.getElem?_eq_some_iff.1 hG).1
  clear hX hb3 hgg hbl
  have q0 := (cell_heap hG 0).trans (show _ = some (Value.int .i64 3) from rfl)
  have hG : W3.heap[g]? = some (.cells ((MsgV.zero 3).front ++ [Value.string ⟨#[]⟩, Value.int .i64 0, Value.string ⟨#[]⟩, Value.int .i64 0, Value.int .i64 0, Value.string ⟨#[]⟩, Value.int .i64 0, Value.int .i64 0, Value.string ⟨#[]⟩, Value.int .i64 0, Value.int .i64 0, Value.int .i64 0, Value.slice none 0 0, Value.int .i64 0, Value.slice none 0 0]).toArray 34 (0, 0)) := by rw [hG, MsgV.row_split]; rfl
  have hF : (MsgV.zero 3).front.length = 35 := MsgV.front_len _
  go_upto_region 8 with (first | (go_at_call 67; refine (C2 _ _ hR).mono ?_; rintro e w1 ⟨rfl, hR, hk⟩; have hG := hk.row5 hG hgb; have hZ := hk.row5 hZ hzb; have hgl := Nat.lt_of_lt_of_le hgl hk.size; have hbel := hbel.trans (hk.below hwb hbel.size); have f35 := frozen_heap hG 35; have m35 : World.cell? _ ⟨g, 35, none⟩ = some (Value.string ⟨#[]⟩) := back_cell hF hG 0; have f36 := frozen_heap hG 36; have m36 : World.cell? _ ⟨g, 36, none⟩ = some (Value.int .i64 0) := back_cell hF hG 1; have f37 := frozen_heap hG 37; have m37 : World.cell? _ ⟨g, 37, none⟩ = some (Value.string ⟨#[]⟩) := back_cell hF hG 2; have f38 := frozen_heap hG 38; have m38 : World.cell? _ ⟨g, 38, none⟩ = some (Value.int .i64 0) := back_cell hF hG 3; have f39 := frozen_heap hG 39; have m39 : World.cell? _ ⟨g, 39, none⟩ = some (Value.int .i64 0) := back_cell hF hG 4; have f40 := frozen_heap hG 40; have m40 : World.cell? _ ⟨g, 40, none⟩ = some (Value.string ⟨#[]⟩) := back_cell hF hG 5; have f41 := frozen_heap hG 41; have m41 : World.cell? _ ⟨g, 41, none⟩ = some (Value.int .i64 0) := back_cell hF hG 6; have f42 := frozen_heap hG 42; have m42 : World.cell? _ ⟨g, 42, none⟩ = some (Value.int .i64 0) := back_cell hF hG 7))
  refine wp_nameE _ (fun W4 hX => ?_)
  have hR : QAt b W4 s a2 e2 := by rw [hX]; exact ((((((((hR.put8 hgb _).put8 hgb _).put8 hgb _).put8 hgb _).put8 hgb _).put8 hgb _).put8 hgb _).put8 hgb _)
  have hZ : W4.heap[w.heap.size]? = some (.cells (MsgV.zero 0).row 34 (0, 0)) := by rw [hX]; exact (row_oth (row_oth (row_oth (row_oth (row_oth (row_oth (row_oth (row_oth hZ hgz) hgz) hgz) hgz) hgz) hgz) hgz) hgz)
  have hbel : Below w.heap.size w W4 := by rw [hX]; exact ((((((((hbel.setCell (p := ⟨g, 35, none⟩) hwg _).setCell (p := ⟨g, 36, none⟩) hwg _).setCell (p := ⟨g, 37, none⟩) hwg _).setCell (p := ⟨g, 38, none⟩) hwg _).setCell (p := ⟨g, 39, none⟩) hwg _).setCell (p := ⟨g, 40, none⟩) hwg _).setCell (p := ⟨g, 41, none⟩) hwg _).setCell (p := ⟨g, 42, none⟩) hwg _)
  have hG : W4.heap[g]? = some (.cells ((MsgV.zero 3).front ++ [Value.string sp, Value.int .i64 sc, Value.string dp, Value.int .i64 dc, Value.int .i64 sq, Value.string da, Value.int .i64 th, Value.int .i64 ta, Value.string ⟨#[]⟩, Value.int .i64 0, Value.int .i64 0, Value.int .i64 0, Value.slice none 0 0, Value.int .i64 0, Value.slice none 0 0]).toArray 34 (0, 0)) := by rw [hX]; exact (back_put hF (back_put hF (back_put hF (back_put hF (back_put hF (back_put hF (back_put hF (back_put hF hG 0 (.string sp)) 1 (.int .i64 sc)) 2 (.string dp)) 3 (.int .i64 dc)) 4 (.int .i64 sq)) 5 (.string da)) 6 (.int .i64 th)) 7 (.int .i64 ta))
  have hgl : g < W4.heap.size := (Array.getElem?_eq_some_iff.1 hG).1
  clear hX
  clear C2 f35 m35 f36 m36 f37 m37 f38 m38 f39 m39 f40 m40 f41 m41 f42 m42
  have q0 := (cell_heap hG 0).trans (show _ = some (Value.int .i64 3) from rfl)
  go_upto_region 10 with (first | (go_at_call 68; refine (C3 _ _ hR).mono ?_; rintro e w1 ⟨rfl, hR, hk⟩; have hG := hk.row5 hG hgb; have hZ := hk.row5 hZ hzb; have hgl := Nat.lt_of_lt_of_le hgl hk.size; have hbel := hbel.trans (hk.below hwb hbel.size); have f43 := frozen_heap hG 43; have m43 : World.cell? _ ⟨g, 43, none⟩ = some (Value.string ⟨#[]⟩) := back_cell hF hG 8))
  refine wp_nameE _ (fun W5 hX => ?_)
  have hR : QAt b W5 s a3 e3 := by rw [hX]; exact (hR.put8 hgb _)
  have hZ : W5.heap[w.heap.size]? = some (.cells (MsgV.zero 0).row 34 (0, 0)) := by rw [hX]; exact (row_oth hZ hgz)
  have hbel : Below w.heap.size w W5 := by rw [hX]; exact (hbel.setCell (p := ⟨g, 43, none⟩) hwg _)
  have hG : W5.heap[g]? = some (.cells ((MsgV.zero 3).front ++ [Value.string sp, Value.int .i64 sc, Value.string dp, Value.int .i64 dc, Value.int .i64 sq, Value.string da, Value.int .i64 th, Value.int .i64 ta, Value.string ack, Value.int .i64 0, Value.int .i64 0, Value.int .i64 0, Value.slice none 0 0, Value.int .i64 0, Value.slice none 0 0]).toArray 34 (0, 0)) := by rw [hX]; exact (back_put hF hG 8 (.string ack))
  have hgl : g < W5.heap.size := (Array.getElem?_eq_some_iff.1 hG).1
  clear hX
  clear C3 f43 m43
  have q0 := (cell_heap hG 0).trans (show _ = some (Value.int .i64 3) from rfl)
  go_upto_region 13 with (first | (go_at_call 65; refine (C4 _ _ hR).mono ?_; rintro e w1 ⟨rfl, hR, hk⟩; have hG := hk.row5 hG hgb; have hZ := hk.row5 hZ hzb; have hgl := Nat.lt_of_lt_of_le hgl hk.size; have hbel := hbel.trans (hk.below hwb hbel.size); have f45 := frozen_heap hG 45; have m45 : World.cell? _ ⟨g, 45, none⟩ = some (Value.int .i64 0) := back_cell hF hG 10))
  refine wp_nameE _ (fun W6 hX => ?_)
  have hR : QAt b W6 s a4 e4 := by rw [hX]; exact (hR.put8 hgb _)
  have hZ : W6.heap[w.heap.size]? = some (.cells (MsgV.zero 0).row 34 (0, 0)) := by rw [hX]; exact (row_oth hZ hgz)
  have hbel : Below w.heap.size w W6 := by rw [hX]; exact (hbel.setCell (p := ⟨g, 45, none⟩) hwg _)
  have hG : W6.heap[g]? = some (.cells ((MsgV.zero 3).front ++ [Value.string sp, Value.int .i64 sc, Value.string dp, Value.int .i64 dc, Value.int .i64 sq, Value.string da, Value.int .i64 th, Value.int .i64 ta, Value.string ack, Value.int .i64 0, Value.int .i64 he, Value.int .i64 0, Value.slice none 0 0, Value.int .i64 0, Value.slice none 0 0]).toArray 34 (0, 0)) := by rw [hX]; exact (back_put hF hG 10 (.int .i64 he))
  have hgl : g < W6.heap.size := (Array.getElem?_eq_some_iff.1 hG).1
  clear hX
  clear C4 f45 m45
  have q0 := (cell_heap hG 0).trans (show _ = some (Value.int .i64 3) from rfl)
  obtain ⟨Bp, hBp⟩ : ∃ x, W6.heap.size = x := ⟨_, rfl⟩
  go_upto_region 14 with (first | (go_at_call 69; refine (C5 _ _ hR).mono ?_; rintro e w1 ⟨pct, pa, pn, pc, pxs, A, rfl, hL, hpn, hpc, hpM, hR, hpA, hk, hpd⟩; have hG := hk.row5 hG hgb; have hZ := hk.row5 hZ hzb; have hgl := Nat.lt_of_lt_of_le hgl hk.size; have hbel := hbel.trans (hk.below hwb hbel.size); have f46 := frozen_heap hG 46; have m46 : World.cell? _ ⟨g, 46, none⟩ = some (Value.int .i64 0) := back_cell hF hG 11; have f47 := frozen_heap hG 47; have m47 : World.cell? _ ⟨g, 47, none⟩ = some (Value.slice none 0 0) := back_cell hF hG 12))
  rw [hBp] at hL
  have hgB : g < Bp := by omega
  have hbB : b < Bp := by omega
  have HPD := Lib.hid hpd
  have HPA := Lib.hid hpA
  clear hpd hpA
  refine wp_nameE _ (fun W7 hX => ?_)
  have hR : QAt b W7 s A e5 := by rw [hX]; exact ((hR.put8 hgb _).put8 hgb _)
  have hZ : W7.heap[w.heap.size]? = some (.cells (MsgV.zero 0).row 34 (0, 0)) := by rw [hX]; exact (row_oth (row_oth hZ hgz) hgz)
  have hbel : Below w.heap.size w W7 := by rw [hX]; exact ((hbel.setCell (p := ⟨g, 46, none⟩) hwg _).setCell (p := ⟨g, 47, none⟩) hwg _)
  have hG : W7.heap[g]? = some (.cells ((MsgV.zero 3).front ++ [Value.string sp, Value.int .i64 sc, Value.string dp, Value.int .i64 dc, Value.int .i64 sq, Value.string da, Value.int .i64 th, Value.int .i64 ta, Value.string ack, Value.int .i64 0, Value.int .i64 he, Value.int .i64 pct, Value.slice pa pn pc, Value.int .i64 0, Value.slice none 0 0]).toArray 34 (0, 0)) := by rw [hX]; exact (back_put hF (back_put hF hG 11 (.int .i64 pct)) 12 (.slice pa pn pc))
  have hgl : g < W7.heap.size := (Array.getElem?_eq_some_iff.1 hG).1
  have hL : lvsHeld W7 Bp pa pxs := by rw [hX]; exact ((hL.same (SameT.put hgB) (SameT.put hgB)).same (SameT.put hgB) (SameT.put hgB))
  clear hX
  clear C5 f46 f47 m46 m47
  have q0 := (cell_heap hG 0).trans (show _ = some (Value.int .i64 3) from rfl)
  obtain ⟨RW, hRW⟩ : ∃ q : MsgV, (⟨3, 0, 0, zeroM, sp, sc, dp, dc, sq, da, th, ta, ack, 0, he, pct, pa, pn, pc, pxs, 0, none, 0, 0, []⟩ : MsgV) = q := ⟨_, rfl⟩
  have hG : W7.heap[g]? = some (.cells RW.row 34 (0, 0)) := by rw [← hRW, MsgV.row_split]; exact hG
  have hm : RW.ok W7 := by rw [← hRW]; exact ⟨hL.at, hpn, hpc, hpM, LvsAt.nil _ _, rfl, Nat.le_refl _, Nat.zero_le _, by unfold maxLen; simp only; omega, by unfold maxLen; simp only; omega⟩
  have hmh : RW.heldM W7 g := by rw [← hRW]; exact ⟨hL.mono (by omega), lvsHeld.nil _ _⟩
  have hmd : e5 = 0 → RW.d = md := fun h0 => by rw [← HMD.out, ← hRW, ← (HPD.out h0).2]; unfold MsgV.d; simp only [List.map_nil]; rfl
  have hee : e5 = e5 := rfl
  have hep : endF s A e5 = endF s a5 e5 := by rw [endF_err (a' := a5) (fun h => (HPD.out h).1), hee]
  have HMDD := Lib.hid hmd
  have HEE := Lib.hid hee
  clear hRW hmd hee HMD
  have CE := qend_any _ _ _ _ _ hR
  rw [hep] at CE
  obtain ⟨E9, h9e⟩ : ∃ E, endF s a5 e5 = E := ⟨_, rfl⟩
  have hD := HD.out
  rw [h9e] at hD CE
  have H0 : Hid (E9 = 0 → e5 = 0) := Lib.hid fun h => by rw [← h9e, ← hep] at h; exact (endF_ok h).1
  have HD2 := Lib.hid hD
  clear hD h9e hep HD
  by_cases hE : E9 = 0
  · subst hE
    have hmd := HMDD.out (H0.out rfl)
    have CM := fun W (hb : Below W7.heap.size W7 W) => refMayMsg_any RW W (hm.below hb)
    rw [may_eq, hmd] at CM
    cases hM : mayD md
    · simp only [hM] at CM
      have hDv : Hid (decMsg s = (MsgD.zero 0, 1)) := Lib.hid (by rw [HD2.out, if_pos rfl, hM]; rfl)
      go_upto_region 20 with (first | (refine wpList_load_midG 34 (.tmp 5) rfl g 0 rfl RW.row.toList _ (rangeAt_row5 hG) Try.underlying34 rfl (msg_info _) (by first | rfl | (simp [Region.wanted, yielded, *]; done)) ?_; rw [Array.toArray_toList]) | (go_at_call 70; refine CE.mono ?_; rintro e w5 ⟨rfl, hb⟩; have hb5 := hb; have hZ := cells_of hZ hb (by omega); have hG := cells_of hG hb hgl; have hbel := hbel.trans (hb.mono hbel.size)) | (go_at_call 22; refine (CM _ hb5).mono ?_; rintro e w6 ⟨rfl, hb⟩; have hb6 := hb; have h5s := hb5.size; have hZ := cells_of hZ hb (by omega); have hbel := hbel.trans (hb.mono hbel.size)))
      go_step
      refine wpList_build0 rfl 34 rfl (build_msg0 _) ?_
      simp only [Act.put, List.setIfInBounds_toArray, List.set_cons_succ, List.set_cons_zero]
      go_wp2_with (refine wpList_storeRowTo (Z := (MsgV.zero 0).row) rfl (.tmp 2) (.tmp 66) 34 rfl (by rw [MsgV.row_size]; kernel_rfl) rfl (by rfl) hZ (by simp only [MsgV.row_size]) (MsgV.row_one _) ?_)
      have hZ2 := setRow_heap _ _ _ (MsgV.zero 0).row _ _ hZ
      have hrd := run_loadVar_mid (P := Try.prog) _ w.heap.size 0 34 (MsgV.zero 0).row.toList _ (rangeAt_row5 hZ2) Try.underlying34 rfl (by rw [Array.length_toList, MsgV.row_size]; kernel_rfl)
      rw [Array.toArray_toList] at hrd
      refine bodyPost_ret (v := .tuple #[.agg (MsgV.zero 0).row, .int .i64 1]) ?_ rfl ?_
      · simp [results, Try.results21, asAddr, hrd]
        try rfl
      exact ⟨MsgV.zero 0, by rw [hDv.out], msg_ok_zero 0 _, ⟨lvsHeld.nil _ _, lvsHeld.nil _ _⟩, by rw [hDv.out]; rfl, below_setRow hbel (Nat.le_refl _) _⟩
    · simp only [hM] at CM
      have hDv : Hid (decMsg s = (md, 0)) := Lib.hid (by rw [HD2.out, if_pos rfl, hM]; rfl)
      go_wp2_with (first | (refine wpList_load_midG 34 (.tmp 5) rfl g 0 rfl RW.row.toList _ (rangeAt_row5 hG) Try.underlying34 rfl (msg_info _) (by first | rfl | (simp [Region.wanted, yielded, *]; done)) ?_; rw [Array.toArray_toList]) | (refine wpList_load_mid rfl 34 (.tmp 5) rfl g 0 rfl RW.row.toList _ (rangeAt_row5 hG) Try.underlying34 rfl (msg_info _) ?_; rw [Array.toArray_toList]) | (go_at_call 70; refine CE.mono ?_; rintro e w5 ⟨rfl, hb⟩; have hb5 := hb; have hZ := cells_of hZ hb (by omega); have hG := cells_of hG hb hgl; have hbel := hbel.trans (hb.mono hbel.size)) | (go_at_call 22; refine (CM _ hb5).mono ?_; rintro e w6 ⟨rfl, hb⟩; have hb6 := hb; have h5s := hb5.size; have hZ := cells_of hZ hb (by omega); have hG := cells_of hG hb (by omega); have hbel := hbel.trans (hb.mono hbel.size)) | (refine wpList_storeRowTo (Z := RW.row) rfl (.tmp 2) (.tmp 68) 34 rfl (by rw [MsgV.row_size]; kernel_rfl) rfl (by rfl) hZ (by simp only [MsgV.row_size]) (MsgV.row_one _) ?_))
      have hZ2 := setRow_heap _ _ _ RW.row _ _ hZ
      have hrd := run_loadVar_mid (P := Try.prog) _ w.heap.size 0 34 RW.row.toList _ (rangeAt_row5 hZ2) Try.underlying34 rfl (by rw [Array.length_toList, MsgV.row_size]; kernel_rfl)
      rw [Array.toArray_toList] at hrd
      refine bodyPost_ret (v := .tuple #[.agg RW.row, .int .i64 0]) ?_ rfl ?_
      · simp [results, Try.results21, asAddr, hrd]
        try rfl
      have hb56 := hb5.trans (hb6.mono hb5.size)
      have hmh := (hmh.same (SameT.below hb56) (SameT.below hb56)).same (SameT.setRow (cs := RW.row) hzg) (SameT.setRow hzg)
      exact ⟨RW, by rw [hDv.out], hm.held hmh, hmh.mono (Nat.le_of_lt hzg), by rw [hDv.out]; exact hmd, below_setRow hbel (Nat.le_refl _) _⟩
  · have hE0 : (E9 == 0) = false := beq_eq_false_iff_ne.2 hE
    have hDv : Hid (decMsg s = (MsgD.zero 0, E9)) := Lib.hid (by rw [HD2.out, if_neg hE])
    go_upto_region 20 with (go_at_call 70; refine CE.mono ?_; rintro e w5 ⟨rfl, hb⟩; have hZ := cells_of hZ hb (by omega); have hbel := hbel.trans (hb.mono hbel.size); clear hb)
    go_step
    refine wpList_build0 rfl 34 rfl (build_msg0 _) ?_
    simp only [Act.put, List.setIfInBounds_toArray, List.set_cons_succ, List.set_cons_zero]
    go_wp2_with (refine wpList_storeRowTo (Z := (MsgV.zero 0).row) rfl (.tmp 2) (.tmp 66) 34 rfl (by rw [MsgV.row_size]; kernel_rfl) rfl (by rfl) hZ (by simp only [MsgV.row_size]) (MsgV.row_one _) ?_)
    have hZ2 := setRow_heap _ _ _ (MsgV.zero 0).row _ _ hZ
    have hrd := run_loadVar_mid (P := Try.prog) _ w.heap.size 0 34 (MsgV.zero 0).row.toList _ (rangeAt_row5 hZ2) Try.underlying34 rfl (by rw [Array.length_toList, MsgV.row_size]; kernel_rfl)
    rw [Array.toArray_toList] at hrd
    refine bodyPost_ret (v := .tuple #[.agg (MsgV.zero 0).row, .int .i64 E9]) ?_ rfl ?_
    · simp [results, Try.results21, asAddr, hrd]
      try rfl
    exact ⟨MsgV.zero 0, by rw [hDv.out], msg_ok_zero 0 _, ⟨lvsHeld.nil _ _, lvsHeld.nil _ _⟩, by rw [hDv.out]; rfl, below_setRow hbel (Nat.le_refl _) _⟩
set_option maxRecDepth 100000 in
set_option maxHeartbeats 12800000 in
theorem refDec_4 (s : ByteArray) (w : World) (hs : s.size ≤ 1000000000) (a1 e1 : Int) (h1 : numG s 0 0 1 5 = (4, a1, e1)) :
    Calls Try.prog 21 #[.string s] w fun e w' => decPost w s e w' := by
  have hp : (0 : Int) ≤ 0 ∧ (0 : Int) ≤ s.size := ⟨by decide, by omega⟩
  have p1 := numG_in (err := 0) (least := 1) (most := 5) hp
  rw [h1] at p1
  simp only at p1
  have C2 := fun b W h => rdPk_any b W s a1 e1 h hs
  have p2 := pkG_in (e := e1) p1
  have z2 := pkG_size s a1 e1
  obtain ⟨⟨⟨⟨sp, sc⟩, ⟨dp, dc⟩, sq, da, th, ta⟩, a2, e2⟩, h2⟩ : ∃ t, pkP s a1 e1 = t := ⟨_, rfl⟩
  have gq := h2
  rw [pkP_eq] at gq
  simp only [Prod.mk.injEq] at gq
  obtain ⟨⟨⟨g1, g2⟩, ⟨g3, g4⟩, g5, g6, g7, g8⟩, g9, g10⟩ := gq
  simp only [g1, g2, g3, g4, g5, g6, g7, g8, g9, g10] at C2
  rw [g9] at p2
  rw [g1, g3] at z2
  clear g1 g2 g3 g4 g5 g6 g7 g8 g9 g10
  have zs := z2.1
  have zd := z2.2
  clear z2
  have p3 := numG_in (err := e2) (least := 0) (most := 1099511627777) p2
  obtain ⟨⟨nx, a3, e3⟩, h3⟩ : ∃ t, numG s a2 e2 0 1099511627777 = t := ⟨_, rfl⟩
  rw [h3] at p3
  simp only at p3
  have C3 := fun b W h => qnumK_all b W s a2 e2 0 1099511627777 h hs
  simp only [h3] at C3
  have p4 := numG_in (err := e3) (least := 1) (most := 1099511627776) p3
  obtain ⟨⟨he, a4, e4⟩, h4⟩ : ∃ t, numG s a3 e3 1 1099511627776 = t := ⟨_, rfl⟩
  rw [h4] at p4
  simp only at p4
  have C4 := fun b W h => qnumK_all b W s a3 e3 1 1099511627776 h hs
  simp only [h4] at C4
  have C5 := fun b W h => rdPf_any b W s a4 e4 h hs p4
  obtain ⟨⟨P5, a5, e5⟩, h5⟩ : ∃ t, pfP s a4 e4 = t := ⟨_, rfl⟩
  unfold rdPfPost at C5
  simp only [h5] at C5
  have hE : msgP s 0 0 = (mk4 (((sp, sc), (dp, dc), sq, da, th, ta), nx, he, P5), a5, e5) := by
    unfold msgP mapP seqP nP
    simp only [h1]
    unfold bodyP
    rw [if_neg (by decide), if_neg (by decide), if_pos rfl]
    unfold mapP seqP nP
    simp only [h2, h3, h4, h5]
  obtain ⟨md, hmd9⟩ : ∃ x, mk4 (((sp, sc), (dp, dc), sq, da, th, ta), nx, he, P5) = x := ⟨_, rfl⟩
  rw [hmd9] at hE
  have HMD := Lib.hid hmd9
  have HD : Hid (decMsg s = if endF s a5 e5 = 0 then (bif mayD md then (md, 0) else (MsgD.zero 0, 1)) else (MsgD.zero 0, endF s a5 e5)) := Lib.hid (by unfold decMsg decP; simp only [hE])
  have C1 := fun b W h => qnumK_all b W s 0 0 1 5 h hs
  simp only [h1] at C1
  clear hE h1 hmd9 h2 h3 h4 h5
  have hz0 := al2_0 w (.cells #[.int .i64 0, .int .i64 0, .int .i64 0, .int .u8 0, .int .u8 0, .int .u8 0, .int .u8 0, .int .u8 0, .int .u8 0, .int .u8 0, .int .u8 0, .int .u8 0, .int .u8 0, .int .u8 0, .int .u8 0, .int .u8 0, .int .u8 0, .int .u8 0, .int .u8 0, .int .u8 0, .int .u8 0, .int .u8 0, .int .u8 0, .int .u8 0, .int .u8 0, .int .u8 0, .int .u8 0, .int .u8 0, .int .u8 0, .int .u8 0, .int .u8 0, .int .u8 0, .int .u8 0, .int .u8 0, .int .u8 0, .string ⟨#[]⟩, .int .i64 0, .string ⟨#[]⟩, .int .i64 0, .int .i64 0, .string ⟨#[]⟩, .int .i64 0, .int .i64 0, .string ⟨#[]⟩, .int .i64 0, .int .i64 0, .int .i64 0, .slice none 0 0, .int .i64 0, .slice none 0 0] 34) (.cells #[.string s, .int .i64 0, .int .i64 0] 96)
  have hg0 := al2_1 w (.cells #[.int .i64 0, .int .i64 0, .int .i64 0, .int .u8 0, .int .u8 0, .int .u8 0, .int .u8 0, .int .u8 0, .int .u8 0, .int .u8 0, .int .u8 0, .int .u8 0, .int .u8 0, .int .u8 0, .int .u8 0, .int .u8 0, .int .u8 0, .int .u8 0, .int .u8 0, .int .u8 0, .int .u8 0, .int .u8 0, .int .u8 0, .int .u8 0, .int .u8 0, .int .u8 0, .int .u8 0, .int .u8 0, .int .u8 0, .int .u8 0, .int .u8 0, .int .u8 0, .int .u8 0, .int .u8 0, .int .u8 0, .string ⟨#[]⟩, .int .i64 0, .string ⟨#[]⟩, .int .i64 0, .int .i64 0, .string ⟨#[]⟩, .int .i64 0, .int .i64 0, .string ⟨#[]⟩, .int .i64 0, .int .i64 0, .int .i64 0, .slice none 0 0, .int .i64 0, .slice none 0 0] 34) (.cells #[.string s, .int .i64 0, .int .i64 0] 96)
  have hbA := al2_below w (.cells #[.int .i64 0, .int .i64 0, .int .i64 0, .int .u8 0, .int .u8 0, .int .u8 0, .int .u8 0, .int .u8 0, .int .u8 0, .int .u8 0, .int .u8 0, .int .u8 0, .int .u8 0, .int .u8 0, .int .u8 0, .int .u8 0, .int .u8 0, .int .u8 0, .int .u8 0, .int .u8 0, .int .u8 0, .int .u8 0, .int .u8 0, .int .u8 0, .int .u8 0, .int .u8 0, .int .u8 0, .int .u8 0, .int .u8 0, .int .u8 0, .int .u8 0, .int .u8 0, .int .u8 0, .int .u8 0, .int .u8 0, .string ⟨#[]⟩, .int .i64 0, .string ⟨#[]⟩, .int .i64 0, .int .i64 0, .string ⟨#[]⟩, .int .i64 0, .int .i64 0, .string ⟨#[]⟩, .int .i64 0, .int .i64 0, .int .i64 0, .slice none 0 0, .int .i64 0, .slice none 0 0] 34) (.cells #[.string s, .int .i64 0, .int .i64 0] 96)
  go_enter Try.func21, Try.ntmps21
  go_upto_region 2 with fail
  refine wp_nameE _ (fun W1 hW => ?_)
  have hZ : W1.heap[w.heap.size]? = some (.cells (MsgV.zero 0).row 34 (0, 0)) := by rw [hW, ← zero_row]; exact hz0
  have hR : QAt (w.heap.size + 1) W1 s 0 0 := by rw [hW]; exact hg0
  have hbel : Below w.heap.size w W1 := by rw [hW]; exact hbA
  obtain ⟨b, hb9⟩ : ∃ b, w.heap.size + 1 = b := ⟨_, rfl⟩
  simp only [hb9] at hR ⊢
  have hzb : w.heap.size ≠ b := by omega
  have hwb : w.heap.size ≤ b := by omega
  clear hW hz0 hg0 hbA hb9
  iterate 6 go_step
  go_at_call 65
  refine (C1 _ _ hR).mono ?_
  rintro e w2 ⟨rfl, hR, hk⟩
  have hZ := hk.row5 hZ hzb
  have hbel := hbel.trans (hk.below hwb hbel.size)
  clear hk C1
  simp only []
  go_step
  refine wpList_build1 rfl 34 0 (.tmp 11) rfl rfl (build_msg 4 _) ?_
  simp only [Act.put, List.setIfInBounds_toArray, List.set_cons_succ, List.set_cons_zero]
  iterate 3 go_step
  refine wpList_storeRowTo (Z := (MsgV.zero 4).row) rfl (.tmp 5) (.tmp 12) 34 rfl (by rw [MsgV.row_size]; kernel_rfl) rfl (by rfl) (heap_push _ _ _) (by rw [MsgV.row_size]; rfl) (MsgV.row_one _) ?_
  go_step
  simp only [Act.put]
  go_upto_region 3 with fail
  refine wp_nameE _ (fun W3 hX => ?_)
  have hb3 : Below w2.heap.size w2 W3 := by rw [hX]; exact below_setRow (Below.alloc (Below.refl _ _) (Nat.le_refl _) _) (Nat.le_refl _) _
  have hG : W3.heap[w2.heap.size]? = some (.cells (MsgV.zero 4).row 34 (0, 0)) := by rw [hX]; exact setRow_heap _ _ _ _ _ _ (heap_push _ _ _)
  have hbl := hR.lt
  have hR := hR.below hb3 hR.lt
  have hZ := cells_of hZ hb3 (by omega)
  have hbel := hbel.trans (hb3.mono hbel.size)
  obtain ⟨g, hgg⟩ : ∃ g, w2.heap.size = g := ⟨_, rfl⟩
  rw [hgg] at hG
  simp only [hgg]
  have hgb : g ≠ b := by omega
  have hgz : g ≠ w.heap.size := by omega
  have hwg : w.heap.size ≤ g := by omega
  have hzg : w.heap.size < g := by omega
  have hblg : b < g := by omega
  have hgl : g < W3.heap.size := (Array.getElem?_eq_some_iff.1 hG).1
  clear hX hb3 hgg hbl
  have q0 := (cell_heap hG 0).trans (show _ = some (Value.int .i64 4) from rfl)
  have hG : W3.heap[g]? = some (.cells ((MsgV.zero 4).front ++ [Value.string ⟨#[]⟩, Value.int .i64 0, Value.string ⟨#[]⟩, Value.int .i64 0, Value.int .i64 0, Value.string ⟨#[]⟩, Value.int .i64 0, Value.int .i64 0, Value.string ⟨#[]⟩, Value.int .i64 0, Value.int .i64 0, Value.int .i64 0, Value.slice none 0 0, Value.int .i64 0, Value.slice none 0 0]).toArray 34 (0, 0)) := by rw [hG, MsgV.row_split]; rfl
  have hF : (MsgV.zero 4).front.length = 35 := MsgV.front_len _
  go_upto_region 8 with (first | (go_at_call 67; refine (C2 _ _ hR).mono ?_; rintro e w1 ⟨rfl, hR, hk⟩; have hG := hk.row5 hG hgb; have hZ := hk.row5 hZ hzb; have hgl := Nat.lt_of_lt_of_le hgl hk.size; have hbel := hbel.trans (hk.below hwb hbel.size); have f35 := frozen_heap hG 35; have m35 : World.cell? _ ⟨g, 35, none⟩ = some (Value.string ⟨#[]⟩) := back_cell hF hG 0; have f36 := frozen_heap hG 36; have m36 : World.cell? _ ⟨g, 36, none⟩ = some (Value.int .i64 0) := back_cell hF hG 1; have f37 := frozen_heap hG 37; have m37 : World.cell? _ ⟨g, 37, none⟩ = some (Value.string ⟨#[]⟩) := back_cell hF hG 2; have f38 := frozen_heap hG 38; have m38 : World.cell? _ ⟨g, 38, none⟩ = some (Value.int .i64 0) := back_cell hF hG 3; have f39 := frozen_heap hG 39; have m39 : World.cell? _ ⟨g, 39, none⟩ = some (Value.int .i64 0) := back_cell hF hG 4; have f40 := frozen_heap hG 40; have m40 : World.cell? _ ⟨g, 40, none⟩ = some (Value.string ⟨#[]⟩) := back_cell hF hG 5; have f41 := frozen_heap hG 41; have m41 : World.cell? _ ⟨g, 41, none⟩ = some (Value.int .i64 0) := back_cell hF hG 6; have f42 := frozen_heap hG 42; have m42 : World.cell? _ ⟨g, 42, none⟩ = some (Value.int .i64 0) := back_cell hF hG 7))
  refine wp_nameE _ (fun W4 hX => ?_)
  have hR : QAt b W4 s a2 e2 := by rw [hX]; exact ((((((((hR.put8 hgb _).put8 hgb _).put8 hgb _).put8 hgb _).put8 hgb _).put8 hgb _).put8 hgb _).put8 hgb _)
  have hZ : W4.heap[w.heap.size]? = some (.cells (MsgV.zero 0).row 34 (0, 0)) := by rw [hX]; exact (row_oth (row_oth (row_oth (row_oth (row_oth (row_oth (row_oth (row_oth hZ hgz) hgz) hgz) hgz) hgz) hgz) hgz) hgz)
  have hbel : Below w.heap.size w W4 := by rw [hX]; exact ((((((((hbel.setCell (p := ⟨g, 35, none⟩) hwg _).setCell (p := ⟨g, 36, none⟩) hwg _).setCell (p := ⟨g, 37, none⟩) hwg _).setCell (p := ⟨g, 38, none⟩) hwg _).setCell (p := ⟨g, 39, none⟩) hwg _).setCell (p := ⟨g, 40, none⟩) hwg _).setCell (p := ⟨g, 41, none⟩) hwg _).setCell (p := ⟨g, 42, none⟩) hwg _)
  have hG : W4.heap[g]? = some (.cells ((MsgV.zero 4).front ++ [Value.string sp, Value.int .i64 sc, Value.string dp, Value.int .i64 dc, Value.int .i64 sq, Value.string da, Value.int .i64 th, Value.int .i64 ta, Value.string ⟨#[]⟩, Value.int .i64 0, Value.int .i64 0, Value.int .i64 0, Value.slice none 0 0, Value.int .i64 0, Value.slice none 0 0]).toArray 34 (0, 0)) := by rw [hX]; exact (back_put hF (back_put hF (back_put hF (back_put hF (back_put hF (back_put hF (back_put hF (back_put hF hG 0 (.string sp)) 1 (.int .i64 sc)) 2 (.string dp)) 3 (.int .i64 dc)) 4 (.int .i64 sq)) 5 (.string da)) 6 (.int .i64 th)) 7 (.int .i64 ta))
  have hgl : g < W4.heap.size := (Array.getElem?_eq_some_iff.1 hG).1
  clear hX
  clear C2 f35 m35 f36 m36 f37 m37 f38 m38 f39 m39 f40 m40 f41 m41 f42 m42
  have q0 := (cell_heap hG 0).trans (show _ = some (Value.int .i64 4) from rfl)
  go_upto_region 12 with (first | (go_at_call 65; refine (C3 _ _ hR).mono ?_; rintro e w1 ⟨rfl, hR, hk⟩; have hG := hk.row5 hG hgb; have hZ := hk.row5 hZ hzb; have hgl := Nat.lt_of_lt_of_le hgl hk.size; have hbel := hbel.trans (hk.below hwb hbel.size); have f44 := frozen_heap hG 44; have m44 : World.cell? _ ⟨g, 44, none⟩ = some (Value.int .i64 0) := back_cell hF hG 9))
  refine wp_nameE _ (fun W5 hX => ?_)
  have hR : QAt b W5 s a3 e3 := by rw [hX]; exact (hR.put8 hgb _)
  have hZ : W5.heap[w.heap.size]? = some (.cells (MsgV.zero 0).row 34 (0, 0)) := by rw [hX]; exact (row_oth hZ hgz)
  have hbel : Below w.heap.size w W5 := by rw [hX]; exact (hbel.setCell (p := ⟨g, 44, none⟩) hwg _)
  have hG : W5.heap[g]? = some (.cells ((MsgV.zero 4).front ++ [Value.string sp, Value.int .i64 sc, Value.string dp, Value.int .i64 dc, Value.int .i64 sq, Value.string da, Value.int .i64 th, Value.int .i64 ta, Value.string ⟨#[]⟩, Value.int .i64 nx, Value.int .i64 0, Value.int .i64 0, Value.slice none 0 0, Value.int .i64 0, Value.slice none 0 0]).toArray 34 (0, 0)) := by rw [hX]; exact (back_put hF hG 9 (.int .i64 nx))
  have hgl : g < W5.heap.size := (Array.getElem?_eq_some_iff.1 hG).1
  clear hX
  clear C3 f44 m44
  have q0 := (cell_heap hG 0).trans (show _ = some (Value.int .i64 4) from rfl)
  go_upto_region 13 with (first | (go_at_call 65; refine (C4 _ _ hR).mono ?_; rintro e w1 ⟨rfl, hR, hk⟩; have hG := hk.row5 hG hgb; have hZ := hk.row5 hZ hzb; have hgl := Nat.lt_of_lt_of_le hgl hk.size; have hbel := hbel.trans (hk.below hwb hbel.size); have f45 := frozen_heap hG 45; have m45 : World.cell? _ ⟨g, 45, none⟩ = some (Value.int .i64 0) := back_cell hF hG 10))
  refine wp_nameE _ (fun W6 hX => ?_)
  have hR : QAt b W6 s a4 e4 := by rw [hX]; exact (hR.put8 hgb _)
  have hZ : W6.heap[w.heap.size]? = some (.cells (MsgV.zero 0).row 34 (0, 0)) := by rw [hX]; exact (row_oth hZ hgz)
  have hbel : Below w.heap.size w W6 := by rw [hX]; exact (hbel.setCell (p := ⟨g, 45, none⟩) hwg _)
  have hG : W6.heap[g]? = some (.cells ((MsgV.zero 4).front ++ [Value.string sp, Value.int .i64 sc, Value.string dp, Value.int .i64 dc, Value.int .i64 sq, Value.string da, Value.int .i64 th, Value.int .i64 ta, Value.string ⟨#[]⟩, Value.int .i64 nx, Value.int .i64 he, Value.int .i64 0, Value.slice none 0 0, Value.int .i64 0, Value.slice none 0 0]).toArray 34 (0, 0)) := by rw [hX]; exact (back_put hF hG 10 (.int .i64 he))
  have hgl : g < W6.heap.size := (Array.getElem?_eq_some_iff.1 hG).1
  clear hX
  clear C4 f45 m45
  have q0 := (cell_heap hG 0).trans (show _ = some (Value.int .i64 4) from rfl)
  obtain ⟨Bp, hBp⟩ : ∃ x, W6.heap.size = x := ⟨_, rfl⟩
  go_upto_region 14 with (first | (go_at_call 69; refine (C5 _ _ hR).mono ?_; rintro e w1 ⟨pct, pa, pn, pc, pxs, A, rfl, hL, hpn, hpc, hpM, hR, hpA, hk, hpd⟩; have hG := hk.row5 hG hgb; have hZ := hk.row5 hZ hzb; have hgl := Nat.lt_of_lt_of_le hgl hk.size; have hbel := hbel.trans (hk.below hwb hbel.size); have f46 := frozen_heap hG 46; have m46 : World.cell? _ ⟨g, 46, none⟩ = some (Value.int .i64 0) := back_cell hF hG 11; have f47 := frozen_heap hG 47; have m47 : World.cell? _ ⟨g, 47, none⟩ = some (Value.slice none 0 0) := back_cell hF hG 12))
  rw [hBp] at hL
  have hgB : g < Bp := by omega
  have hbB : b < Bp := by omega
  have HPD := Lib.hid hpd
  have HPA := Lib.hid hpA
  clear hpd hpA
  refine wp_nameE _ (fun W7 hX => ?_)
  have hR : QAt b W7 s A e5 := by rw [hX]; exact ((hR.put8 hgb _).put8 hgb _)
  have hZ : W7.heap[w.heap.size]? = some (.cells (MsgV.zero 0).row 34 (0, 0)) := by rw [hX]; exact (row_oth (row_oth hZ hgz) hgz)
  have hbel : Below w.heap.size w W7 := by rw [hX]; exact ((hbel.setCell (p := ⟨g, 46, none⟩) hwg _).setCell (p := ⟨g, 47, none⟩) hwg _)
  have hG : W7.heap[g]? = some (.cells ((MsgV.zero 4).front ++ [Value.string sp, Value.int .i64 sc, Value.string dp, Value.int .i64 dc, Value.int .i64 sq, Value.string da, Value.int .i64 th, Value.int .i64 ta, Value.string ⟨#[]⟩, Value.int .i64 nx, Value.int .i64 he, Value.int .i64 pct, Value.slice pa pn pc, Value.int .i64 0, Value.slice none 0 0]).toArray 34 (0, 0)) := by rw [hX]; exact (back_put hF (back_put hF hG 11 (.int .i64 pct)) 12 (.slice pa pn pc))
  have hgl : g < W7.heap.size := (Array.getElem?_eq_some_iff.1 hG).1
  have hL : lvsHeld W7 Bp pa pxs := by rw [hX]; exact ((hL.same (SameT.put hgB) (SameT.put hgB)).same (SameT.put hgB) (SameT.put hgB))
  clear hX
  clear C5 f46 f47 m46 m47
  have q0 := (cell_heap hG 0).trans (show _ = some (Value.int .i64 4) from rfl)
  obtain ⟨RW, hRW⟩ : ∃ q : MsgV, (⟨4, 0, 0, zeroM, sp, sc, dp, dc, sq, da, th, ta, ⟨#[]⟩, nx, he, pct, pa, pn, pc, pxs, 0, none, 0, 0, []⟩ : MsgV) = q := ⟨_, rfl⟩
  have hG : W7.heap[g]? = some (.cells RW.row 34 (0, 0)) := by rw [← hRW, MsgV.row_split]; exact hG
  have hm : RW.ok W7 := by rw [← hRW]; exact ⟨hL.at, hpn, hpc, hpM, LvsAt.nil _ _, rfl, Nat.le_refl _, Nat.zero_le _, by unfold maxLen; simp only; omega, by unfold maxLen; simp only; omega⟩
  have hmh : RW.heldM W7 g := by rw [← hRW]; exact ⟨hL.mono (by omega), lvsHeld.nil _ _⟩
  have hmd : e5 = 0 → RW.d = md := fun h0 => by rw [← HMD.out, ← hRW, ← (HPD.out h0).2]; unfold MsgV.d; simp only [List.map_nil]; rfl
  have hee : e5 = e5 := rfl
  have hep : endF s A e5 = endF s a5 e5 := by rw [endF_err (a' := a5) (fun h => (HPD.out h).1), hee]
  have HMDD := Lib.hid hmd
  have HEE := Lib.hid hee
  clear hRW hmd hee HMD
  have CE := qend_any _ _ _ _ _ hR
  rw [hep] at CE
  obtain ⟨E9, h9e⟩ : ∃ E, endF s a5 e5 = E := ⟨_, rfl⟩
  have hD := HD.out
  rw [h9e] at hD CE
  have H0 : Hid (E9 = 0 → e5 = 0) := Lib.hid fun h => by rw [← h9e, ← hep] at h; exact (endF_ok h).1
  have HD2 := Lib.hid hD
  clear hD h9e hep HD
  by_cases hE : E9 = 0
  · subst hE
    have hmd := HMDD.out (H0.out rfl)
    have CM := fun W (hb : Below W7.heap.size W7 W) => refMayMsg_any RW W (hm.below hb)
    rw [may_eq, hmd] at CM
    cases hM : mayD md
    · simp only [hM] at CM
      have hDv : Hid (decMsg s = (MsgD.zero 0, 1)) := Lib.hid (by rw [HD2.out, if_pos rfl, hM]; rfl)
      go_upto_region 20 with (first | (refine wpList_load_midG 34 (.tmp 5) rfl g 0 rfl RW.row.toList _ (rangeAt_row5 hG) Try.underlying34 rfl (msg_info _) (by first | rfl | (simp [Region.wanted, yielded, *]; done)) ?_; rw [Array.toArray_toList]) | (go_at_call 70; refine CE.mono ?_; rintro e w5 ⟨rfl, hb⟩; have hb5 := hb; have hZ := cells_of hZ hb (by omega); have hG := cells_of hG hb hgl; have hbel := hbel.trans (hb.mono hbel.size)) | (go_at_call 22; refine (CM _ hb5).mono ?_; rintro e w6 ⟨rfl, hb⟩; have hb6 := hb; have h5s := hb5.size; have hZ := cells_of hZ hb (by omega); have hbel := hbel.trans (hb.mono hbel.size)))
      go_step
      refine wpList_build0 rfl 34 rfl (build_msg0 _) ?_
      simp only [Act.put, List.setIfInBounds_toArray, List.set_cons_succ, List.set_cons_zero]
      go_wp2_with (refine wpList_storeRowTo (Z := (MsgV.zero 0).row) rfl (.tmp 2) (.tmp 66) 34 rfl (by rw [MsgV.row_size]; kernel_rfl) rfl (by rfl) hZ (by simp only [MsgV.row_size]) (MsgV.row_one _) ?_)
      have hZ2 := setRow_heap _ _ _ (MsgV.zero 0).row _ _ hZ
      have hrd := run_loadVar_mid (P := Try.prog) _ w.heap.size 0 34 (MsgV.zero 0).row.toList _ (rangeAt_row5 hZ2) Try.underlying34 rfl (by rw [Array.length_toList, MsgV.row_size]; kernel_rfl)
      rw [Array.toArray_toList] at hrd
      refine bodyPost_ret (v := .tuple #[.agg (MsgV.zero 0).row, .int .i64 1]) ?_ rfl ?_
      · simp [results, Try.results21, asAddr, hrd]
        try rfl
      exact ⟨MsgV.zero 0, by rw [hDv.out], msg_ok_zero 0 _, ⟨lvsHeld.nil _ _, lvsHeld.nil _ _⟩, by rw [hDv.out]; rfl, below_setRow hbel (Nat.le_refl _) _⟩
    · simp only [hM] at CM
      have hDv : Hid (decMsg s = (md, 0)) := Lib.hid (by rw [HD2.out, if_pos rfl, hM]; rfl)
      go_wp2_with (first | (refine wpList_load_midG 34 (.tmp 5) rfl g 0 rfl RW.row.toList _ (rangeAt_row5 hG) Try.underlying34 rfl (msg_info _) (by first | rfl | (simp [Region.wanted, yielded, *]; done)) ?_; rw [Array.toArray_toList]) | (refine wpList_load_mid rfl 34 (.tmp 5) rfl g 0 rfl RW.row.toList _ (rangeAt_row5 hG) Try.underlying34 rfl (msg_info _) ?_; rw [Array.toArray_toList]) | (go_at_call 70; refine CE.mono ?_; rintro e w5 ⟨rfl, hb⟩; have hb5 := hb; have hZ := cells_of hZ hb (by omega); have hG := cells_of hG hb hgl; have hbel := hbel.trans (hb.mono hbel.size)) | (go_at_call 22; refine (CM _ hb5).mono ?_; rintro e w6 ⟨rfl, hb⟩; have hb6 := hb; have h5s := hb5.size; have hZ := cells_of hZ hb (by omega); have hG := cells_of hG hb (by omega); have hbel := hbel.trans (hb.mono hbel.size)) | (refine wpList_storeRowTo (Z := RW.row) rfl (.tmp 2) (.tmp 68) 34 rfl (by rw [MsgV.row_size]; kernel_rfl) rfl (by rfl) hZ (by simp only [MsgV.row_size]) (MsgV.row_one _) ?_))
      have hZ2 := setRow_heap _ _ _ RW.row _ _ hZ
      have hrd := run_loadVar_mid (P := Try.prog) _ w.heap.size 0 34 RW.row.toList _ (rangeAt_row5 hZ2) Try.underlying34 rfl (by rw [Array.length_toList, MsgV.row_size]; kernel_rfl)
      rw [Array.toArray_toList] at hrd
      refine bodyPost_ret (v := .tuple #[.agg RW.row, .int .i64 0]) ?_ rfl ?_
      · simp [results, Try.results21, asAddr, hrd]
        try rfl
      have hb56 := hb5.trans (hb6.mono hb5.size)
      have hmh := (hmh.same (SameT.below hb56) (SameT.below hb56)).same (SameT.setRow (cs := RW.row) hzg) (SameT.setRow hzg)
      exact ⟨RW, by rw [hDv.out], hm.held hmh, hmh.mono (Nat.le_of_lt hzg), by rw [hDv.out]; exact hmd, below_setRow hbel (Nat.le_refl _) _⟩
  · have hE0 : (E9 == 0) = false := beq_eq_false_iff_ne.2 hE
    have hDv : Hid (decMsg s = (MsgD.zero 0, E9)) := Lib.hid (by rw [HD2.out, if_neg hE])
    go_upto_region 20 with (go_at_call 70; refine CE.mono ?_; rintro e w5 ⟨rfl, hb⟩; have hZ := cells_of hZ hb (by omega); have hbel := hbel.trans (hb.mono hbel.size); clear hb)
    go_step
    refine wpList_build0 rfl 34 rfl (build_msg0 _) ?_
    simp only [Act.put, List.setIfInBounds_toArray, List.set_cons_succ, List.set_cons_zero]
    go_wp2_with (refine wpList_storeRowTo (Z := (MsgV.zero 0).row) rfl (.tmp 2) (.tmp 66) 34 rfl (by rw [MsgV.row_size]; kernel_rfl) rfl (by rfl) hZ (by simp only [MsgV.row_size]) (MsgV.row_one _) ?_)
    have hZ2 := setRow_heap _ _ _ (MsgV.zero 0).row _ _ hZ
    have hrd := run_loadVar_mid (P := Try.prog) _ w.heap.size 0 34 (MsgV.zero 0).row.toList _ (rangeAt_row5 hZ2) Try.underlying34 rfl (by rw [Array.length_toList, MsgV.row_size]; kernel_rfl)
    rw [Array.toArray_toList] at hrd
    refine bodyPost_ret (v := .tuple #[.agg (MsgV.zero 0).row, .int .i64 E9]) ?_ rfl ?_
    · simp [results, Try.results21, asAddr, hrd]
      try rfl
    exact ⟨MsgV.zero 0, by rw [hDv.out], msg_ok_zero 0 _, ⟨lvsHeld.nil _ _, lvsHeld.nil _ _⟩, by rw [hDv.out]; rfl, below_setRow hbel (Nat.le_refl _) _⟩
set_option maxRecDepth 100000 in
set_option maxHeartbeats 12800000 in
theorem refDec_5 (s : ByteArray) (w : World) (hs : s.size ≤ 1000000000) (a1 e1 : Int) (h1 : numG s 0 0 1 5 = (5, a1, e1)) :
    Calls Try.prog 21 #[.string s] w fun e w' => decPost w s e w' := by
  have hp : (0 : Int) ≤ 0 ∧ (0 : Int) ≤ s.size := ⟨by decide, by omega⟩
  have p1 := numG_in (err := 0) (least := 1) (most := 5) hp
  rw [h1] at p1
  simp only at p1
  have C2 := fun b W h => rdPk_any b W s a1 e1 h hs
  have p2 := pkG_in (e := e1) p1
  have z2 := pkG_size s a1 e1
  obtain ⟨⟨⟨⟨sp, sc⟩, ⟨dp, dc⟩, sq, da, th, ta⟩, a2, e2⟩, h2⟩ : ∃ t, pkP s a1 e1 = t := ⟨_, rfl⟩
  have gq := h2
  rw [pkP_eq] at gq
  simp only [Prod.mk.injEq] at gq
  obtain ⟨⟨⟨g1, g2⟩, ⟨g3, g4⟩, g5, g6, g7, g8⟩, g9, g10⟩ := gq
  simp only [g1, g2, g3, g4, g5, g6, g7, g8, g9, g10] at C2
  rw [g9] at p2
  rw [g1, g3] at z2
  clear g1 g2 g3 g4 g5 g6 g7 g8 g9 g10
  have zs := z2.1
  have zd := z2.2
  clear z2
  have p3 := numG_in (err := e2) (least := 0) (most := 1099511627777) p2
  obtain ⟨⟨nx, a3, e3⟩, h3⟩ : ∃ t, numG s a2 e2 0 1099511627777 = t := ⟨_, rfl⟩
  rw [h3] at p3
  simp only at p3
  have C3 := fun b W h => qnumK_all b W s a2 e2 0 1099511627777 h hs
  simp only [h3] at C3
  have p4 := numG_in (err := e3) (least := 1) (most := 1099511627776) p3
  obtain ⟨⟨he, a4, e4⟩, h4⟩ : ∃ t, numG s a3 e3 1 1099511627776 = t := ⟨_, rfl⟩
  rw [h4] at p4
  simp only at p4
  have C4 := fun b W h => qnumK_all b W s a3 e3 1 1099511627776 h hs
  simp only [h4] at C4
  have C5 := fun b W h => rdPf_any b W s a4 e4 h hs p4
  obtain ⟨⟨P5, a5, e5⟩, h5⟩ : ∃ t, pfP s a4 e4 = t := ⟨_, rfl⟩
  unfold rdPfPost at C5
  simp only [h5] at C5
  obtain ⟨⟨P6, a6, e6⟩, h6⟩ : ∃ t, pfP s a5 e5 = t := ⟨_, rfl⟩
  have HPP : Hid (pfP s a5 e5 = (P6, a6, e6)) := Lib.hid h6
  have hE : msgP s 0 0 = (mk5 (((sp, sc), (dp, dc), sq, da, th, ta), nx, he, P5, P6), a6, e6) := by
    unfold msgP mapP seqP nP
    simp only [h1]
    unfold bodyP
    rw [if_neg (by decide), if_neg (by decide), if_neg (by decide), if_pos rfl]
    unfold mapP seqP nP
    simp only [h2, h3, h4, h5, h6]
  obtain ⟨md, hmd9⟩ : ∃ x, mk5 (((sp, sc), (dp, dc), sq, da, th, ta), nx, he, P5, P6) = x := ⟨_, rfl⟩
  rw [hmd9] at hE
  have HMD := Lib.hid hmd9
  have HD : Hid (decMsg s = if endF s a6 e6 = 0 then (bif mayD md then (md, 0) else (MsgD.zero 0, 1)) else (MsgD.zero 0, endF s a6 e6)) := Lib.hid (by unfold decMsg decP; simp only [hE])
  have C1 := fun b W h => qnumK_all b W s 0 0 1 5 h hs
  simp only [h1] at C1
  clear hE h1 hmd9 h2 h3 h4 h5 h6
  have hz0 := al2_0 w (.cells #[.int .i64 0, .int .i64 0, .int .i64 0, .int .u8 0, .int .u8 0, .int .u8 0, .int .u8 0, .int .u8 0, .int .u8 0, .int .u8 0, .int .u8 0, .int .u8 0, .int .u8 0, .int .u8 0, .int .u8 0, .int .u8 0, .int .u8 0, .int .u8 0, .int .u8 0, .int .u8 0, .int .u8 0, .int .u8 0, .int .u8 0, .int .u8 0, .int .u8 0, .int .u8 0, .int .u8 0, .int .u8 0, .int .u8 0, .int .u8 0, .int .u8 0, .int .u8 0, .int .u8 0, .int .u8 0, .int .u8 0, .string ⟨#[]⟩, .int .i64 0, .string ⟨#[]⟩, .int .i64 0, .int .i64 0, .string ⟨#[]⟩, .int .i64 0, .int .i64 0, .string ⟨#[]⟩, .int .i64 0, .int .i64 0, .int .i64 0, .slice none 0 0, .int .i64 0, .slice none 0 0] 34) (.cells #[.string s, .int .i64 0, .int .i64 0] 96)
  have hg0 := al2_1 w (.cells #[.int .i64 0, .int .i64 0, .int .i64 0, .int .u8 0, .int .u8 0, .int .u8 0, .int .u8 0, .int .u8 0, .int .u8 0, .int .u8 0, .int .u8 0, .int .u8 0, .int .u8 0, .int .u8 0, .int .u8 0, .int .u8 0, .int .u8 0, .int .u8 0, .int .u8 0, .int .u8 0, .int .u8 0, .int .u8 0, .int .u8 0, .int .u8 0, .int .u8 0, .int .u8 0, .int .u8 0, .int .u8 0, .int .u8 0, .int .u8 0, .int .u8 0, .int .u8 0, .int .u8 0, .int .u8 0, .int .u8 0, .string ⟨#[]⟩, .int .i64 0, .string ⟨#[]⟩, .int .i64 0, .int .i64 0, .string ⟨#[]⟩, .int .i64 0, .int .i64 0, .string ⟨#[]⟩, .int .i64 0, .int .i64 0, .int .i64 0, .slice none 0 0, .int .i64 0, .slice none 0 0] 34) (.cells #[.string s, .int .i64 0, .int .i64 0] 96)
  have hbA := al2_below w (.cells #[.int .i64 0, .int .i64 0, .int .i64 0, .int .u8 0, .int .u8 0, .int .u8 0, .int .u8 0, .int .u8 0, .int .u8 0, .int .u8 0, .int .u8 0, .int .u8 0, .int .u8 0, .int .u8 0, .int .u8 0, .int .u8 0, .int .u8 0, .int .u8 0, .int .u8 0, .int .u8 0, .int .u8 0, .int .u8 0, .int .u8 0, .int .u8 0, .int .u8 0, .int .u8 0, .int .u8 0, .int .u8 0, .int .u8 0, .int .u8 0, .int .u8 0, .int .u8 0, .int .u8 0, .int .u8 0, .int .u8 0, .string ⟨#[]⟩, .int .i64 0, .string ⟨#[]⟩, .int .i64 0, .int .i64 0, .string ⟨#[]⟩, .int .i64 0, .int .i64 0, .string ⟨#[]⟩, .int .i64 0, .int .i64 0, .int .i64 0, .slice none 0 0, .int .i64 0, .slice none 0 0] 34) (.cells #[.string s, .int .i64 0, .int .i64 0] 96)
  go_enter Try.func21, Try.ntmps21
  go_upto_region 2 with fail
  refine wp_nameE _ (fun W1 hW => ?_)
  have hZ : W1.heap[w.heap.size]? = some (.cells (MsgV.zero 0).row 34 (0, 0)) := by rw [hW, ← zero_row]; exact hz0
  have hR : QAt (w.heap.size + 1) W1 s 0 0 := by rw [hW]; exact hg0
  have hbel : Below w.heap.size w W1 := by rw [hW]; exact hbA
  obtain ⟨b, hb9⟩ : ∃ b, w.heap.size + 1 = b := ⟨_, rfl⟩
  simp only [hb9] at hR ⊢
  have hzb : w.heap.size ≠ b := by omega
  have hwb : w.heap.size ≤ b := by omega
  clear hW hz0 hg0 hbA hb9
  iterate 6 go_step
  go_at_call 65
  refine (C1 _ _ hR).mono ?_
  rintro e w2 ⟨rfl, hR, hk⟩
  have hZ := hk.row5 hZ hzb
  have hbel := hbel.trans (hk.below hwb hbel.size)
  clear hk C1
  simp only []
  go_step
  refine wpList_build1 rfl 34 0 (.tmp 11) rfl rfl (build_msg 5 _) ?_
  simp only [Act.put, List.setIfInBounds_toArray, List.set_cons_succ, List.set_cons_zero]
  iterate 3 go_step
  refine wpList_storeRowTo (Z := (MsgV.zero 5).row) rfl (.tmp 5) (.tmp 12) 34 rfl (by rw [MsgV.row_size]; kernel_rfl) rfl (by rfl) (heap_push _ _ _) (by rw [MsgV.row_size]; rfl) (MsgV.row_one _) ?_
  go_step
  simp only [Act.put]
  go_upto_region 3 with fail
  refine wp_nameE _ (fun W3 hX => ?_)
  have hb3 : Below w2.heap.size w2 W3 := by rw [hX]; exact below_setRow (Below.alloc (Below.refl _ _) (Nat.le_refl _) _) (Nat.le_refl _) _
  have hG : W3.heap[w2.heap.size]? = some (.cells (MsgV.zero 5).row 34 (0, 0)) := by rw [hX]; exact setRow_heap _ _ _ _ _ _ (heap_push _ _ _)
  have hbl := hR.lt
  have hR := hR.below hb3 hR.lt
  have hZ := cells_of hZ hb3 (by omega)
  have hbel := hbel.trans (hb3.mono hbel.size)
  obtain ⟨g, hgg⟩ : ∃ g, w2.heap.size = g := ⟨_, rfl⟩
  rw [hgg] at hG
  simp only [hgg]
  have hgb : g ≠ b := by omega
  have hgz : g ≠ w.heap.size := by omega
  have hwg : w.heap.size ≤ g := by omega
  have hzg : w.heap.size < g := by omega
  have hblg : b < g := by omega
  have hgl : g < W3.heap.size := (Array.getElem?_eq_some_iff.1 hG).1
  clear hX hb3 hgg hbl
  have q0 := (cell_heap hG 0).trans (show _ = some (Value.int .i64 5) from rfl)
  have hG : W3.heap[g]? = some (.cells ((MsgV.zero 5).front ++ [Value.string ⟨#[]⟩, Value.int .i64 0, Value.string ⟨#[]⟩, Value.int .i64 0, Value.int .i64 0, Value.string ⟨#[]⟩, Value.int .i64 0, Value.int .i64 0, Value.string ⟨#[]⟩, Value.int .i64 0, Value.int .i64 0, Value.int .i64 0, Value.slice none 0 0, Value.int .i64 0, Value.slice none 0 0]).toArray 34 (0, 0)) := by rw [hG, MsgV.row_split]; rfl
  have hF : (MsgV.zero 5).front.length = 35 := MsgV.front_len _
  go_upto_region 8 with (first | (go_at_call 67; refine (C2 _ _ hR).mono ?_; rintro e w1 ⟨rfl, hR, hk⟩; have hG := hk.row5 hG hgb; have hZ := hk.row5 hZ hzb; have hgl := Nat.lt_of_lt_of_le hgl hk.size; have hbel := hbel.trans (hk.below hwb hbel.size); have f35 := frozen_heap hG 35; have m35 : World.cell? _ ⟨g, 35, none⟩ = some (Value.string ⟨#[]⟩) := back_cell hF hG 0; have f36 := frozen_heap hG 36; have m36 : World.cell? _ ⟨g, 36, none⟩ = some (Value.int .i64 0) := back_cell hF hG 1; have f37 := frozen_heap hG 37; have m37 : World.cell? _ ⟨g, 37, none⟩ = some (Value.string ⟨#[]⟩) := back_cell hF hG 2; have f38 := frozen_heap hG 38; have m38 : World.cell? _ ⟨g, 38, none⟩ = some (Value.int .i64 0) := back_cell hF hG 3; have f39 := frozen_heap hG 39; have m39 : World.cell? _ ⟨g, 39, none⟩ = some (Value.int .i64 0) := back_cell hF hG 4; have f40 := frozen_heap hG 40; have m40 : World.cell? _ ⟨g, 40, none⟩ = some (Value.string ⟨#[]⟩) := back_cell hF hG 5; have f41 := frozen_heap hG 41; have m41 : World.cell? _ ⟨g, 41, none⟩ = some (Value.int .i64 0) := back_cell hF hG 6; have f42 := frozen_heap hG 42; have m42 : World.cell? _ ⟨g, 42, none⟩ = some (Value.int .i64 0) := back_cell hF hG 7))
  refine wp_nameE _ (fun W4 hX => ?_)
  have hR : QAt b W4 s a2 e2 := by rw [hX]; exact ((((((((hR.put8 hgb _).put8 hgb _).put8 hgb _).put8 hgb _).put8 hgb _).put8 hgb _).put8 hgb _).put8 hgb _)
  have hZ : W4.heap[w.heap.size]? = some (.cells (MsgV.zero 0).row 34 (0, 0)) := by rw [hX]; exact (row_oth (row_oth (row_oth (row_oth (row_oth (row_oth (row_oth (row_oth hZ hgz) hgz) hgz) hgz) hgz) hgz) hgz) hgz)
  have hbel : Below w.heap.size w W4 := by rw [hX]; exact ((((((((hbel.setCell (p := ⟨g, 35, none⟩) hwg _).setCell (p := ⟨g, 36, none⟩) hwg _).setCell (p := ⟨g, 37, none⟩) hwg _).setCell (p := ⟨g, 38, none⟩) hwg _).setCell (p := ⟨g, 39, none⟩) hwg _).setCell (p := ⟨g, 40, none⟩) hwg _).setCell (p := ⟨g, 41, none⟩) hwg _).setCell (p := ⟨g, 42, none⟩) hwg _)
  have hG : W4.heap[g]? = some (.cells ((MsgV.zero 5).front ++ [Value.string sp, Value.int .i64 sc, Value.string dp, Value.int .i64 dc, Value.int .i64 sq, Value.string da, Value.int .i64 th, Value.int .i64 ta, Value.string ⟨#[]⟩, Value.int .i64 0, Value.int .i64 0, Value.int .i64 0, Value.slice none 0 0, Value.int .i64 0, Value.slice none 0 0]).toArray 34 (0, 0)) := by rw [hX]; exact (back_put hF (back_put hF (back_put hF (back_put hF (back_put hF (back_put hF (back_put hF (back_put hF hG 0 (.string sp)) 1 (.int .i64 sc)) 2 (.string dp)) 3 (.int .i64 dc)) 4 (.int .i64 sq)) 5 (.string da)) 6 (.int .i64 th)) 7 (.int .i64 ta))
  have hgl : g < W4.heap.size := (Array.getElem?_eq_some_iff.1 hG).1
  clear hX
  clear C2 f35 m35 f36 m36 f37 m37 f38 m38 f39 m39 f40 m40 f41 m41 f42 m42
  have q0 := (cell_heap hG 0).trans (show _ = some (Value.int .i64 5) from rfl)
  go_upto_region 12 with (first | (go_at_call 65; refine (C3 _ _ hR).mono ?_; rintro e w1 ⟨rfl, hR, hk⟩; have hG := hk.row5 hG hgb; have hZ := hk.row5 hZ hzb; have hgl := Nat.lt_of_lt_of_le hgl hk.size; have hbel := hbel.trans (hk.below hwb hbel.size); have f44 := frozen_heap hG 44; have m44 : World.cell? _ ⟨g, 44, none⟩ = some (Value.int .i64 0) := back_cell hF hG 9))
  refine wp_nameE _ (fun W5 hX => ?_)
  have hR : QAt b W5 s a3 e3 := by rw [hX]; exact (hR.put8 hgb _)
  have hZ : W5.heap[w.heap.size]? = some (.cells (MsgV.zero 0).row 34 (0, 0)) := by rw [hX]; exact (row_oth hZ hgz)
  have hbel : Below w.heap.size w W5 := by rw [hX]; exact (hbel.setCell (p := ⟨g, 44, none⟩) hwg _)
  have hG : W5.heap[g]? = some (.cells ((MsgV.zero 5).front ++ [Value.string sp, Value.int .i64 sc, Value.string dp, Value.int .i64 dc, Value.int .i64 sq, Value.string da, Value.int .i64 th, Value.int .i64 ta, Value.string ⟨#[]⟩, Value.int .i64 nx, Value.int .i64 0, Value.int .i64 0, Value.slice none 0 0, Value.int .i64 0, Value.slice none 0 0]).toArray 34 (0, 0)) := by rw [hX]; exact (back_put hF hG 9 (.int .i64 nx))
  have hgl : g < W5.heap.size := (Array.getElem?_eq_some_iff.1 hG).1
  clear hX
  clear C3 f44 m44
  have q0 := (cell_heap hG 0).trans (show _ = some (Value.int .i64 5) from rfl)
  go_upto_region 13 with (first | (go_at_call 65; refine (C4 _ _ hR).mono ?_; rintro e w1 ⟨rfl, hR, hk⟩; have hG := hk.row5 hG hgb; have hZ := hk.row5 hZ hzb; have hgl := Nat.lt_of_lt_of_le hgl hk.size; have hbel := hbel.trans (hk.below hwb hbel.size); have f45 := frozen_heap hG 45; have m45 : World.cell? _ ⟨g, 45, none⟩ = some (Value.int .i64 0) := back_cell hF hG 10))
  refine wp_nameE _ (fun W6 hX => ?_)
  have hR : QAt b W6 s a4 e4 := by rw [hX]; exact (hR.put8 hgb _)
  have hZ : W6.heap[w.heap.size]? = some (.cells (MsgV.zero 0).row 34 (0, 0)) := by rw [hX]; exact (row_oth hZ hgz)
  have hbel : Below w.heap.size w W6 := by rw [hX]; exact (hbel.setCell (p := ⟨g, 45, none⟩) hwg _)
  have hG : W6.heap[g]? = some (.cells ((MsgV.zero 5).front ++ [Value.string sp, Value.int .i64 sc, Value.string dp, Value.int .i64 dc, Value.int .i64 sq, Value.string da, Value.int .i64 th, Value.int .i64 ta, Value.string ⟨#[]⟩, Value.int .i64 nx, Value.int .i64 he, Value.int .i64 0, Value.slice none 0 0, Value.int .i64 0, Value.slice none 0 0]).toArray 34 (0, 0)) := by rw [hX]; exact (back_put hF hG 10 (.int .i64 he))
  have hgl : g < W6.heap.size := (Array.getElem?_eq_some_iff.1 hG).1
  clear hX
  clear C4 f45 m45
  have q0 := (cell_heap hG 0).trans (show _ = some (Value.int .i64 5) from rfl)
  obtain ⟨Bp, hBp⟩ : ∃ x, W6.heap.size = x := ⟨_, rfl⟩
  go_upto_region 14 with (first | (go_at_call 69; refine (C5 _ _ hR).mono ?_; rintro e w1 ⟨pct, pa, pn, pc, pxs, A, rfl, hL, hpn, hpc, hpM, hR, hpA, hk, hpd⟩; have hG := hk.row5 hG hgb; have hZ := hk.row5 hZ hzb; have hgl := Nat.lt_of_lt_of_le hgl hk.size; have hbel := hbel.trans (hk.below hwb hbel.size); have f46 := frozen_heap hG 46; have m46 : World.cell? _ ⟨g, 46, none⟩ = some (Value.int .i64 0) := back_cell hF hG 11; have f47 := frozen_heap hG 47; have m47 : World.cell? _ ⟨g, 47, none⟩ = some (Value.slice none 0 0) := back_cell hF hG 12))
  rw [hBp] at hL
  have hgB : g < Bp := by omega
  have hbB : b < Bp := by omega
  have HPD := Lib.hid hpd
  have HPA := Lib.hid hpA
  clear hpd hpA
  refine wp_nameE _ (fun W7 hX => ?_)
  have hR : QAt b W7 s A e5 := by rw [hX]; exact ((hR.put8 hgb _).put8 hgb _)
  have hZ : W7.heap[w.heap.size]? = some (.cells (MsgV.zero 0).row 34 (0, 0)) := by rw [hX]; exact (row_oth (row_oth hZ hgz) hgz)
  have hbel : Below w.heap.size w W7 := by rw [hX]; exact ((hbel.setCell (p := ⟨g, 46, none⟩) hwg _).setCell (p := ⟨g, 47, none⟩) hwg _)
  have hG : W7.heap[g]? = some (.cells ((MsgV.zero 5).front ++ [Value.string sp, Value.int .i64 sc, Value.string dp, Value.int .i64 dc, Value.int .i64 sq, Value.string da, Value.int .i64 th, Value.int .i64 ta, Value.string ⟨#[]⟩, Value.int .i64 nx, Value.int .i64 he, Value.int .i64 pct, Value.slice pa pn pc, Value.int .i64 0, Value.slice none 0 0]).toArray 34 (0, 0)) := by rw [hX]; exact (back_put hF (back_put hF hG 11 (.int .i64 pct)) 12 (.slice pa pn pc))
  have hgl : g < W7.heap.size := (Array.getElem?_eq_some_iff.1 hG).1
  have hL : lvsHeld W7 Bp pa pxs := by rw [hX]; exact ((hL.same (SameT.put hgB) (SameT.put hgB)).same (SameT.put hgB) (SameT.put hgB))
  clear hX
  clear C5 f46 f47 m46 m47
  have q0 := (cell_heap hG 0).trans (show _ = some (Value.int .i64 5) from rfl)
  have C6 := fun b W h => rdPf_any b W s A e5 h hs HPA.out
  unfold rdPfPost at C6
  obtain ⟨⟨P9, a9, e9⟩, h9⟩ : ∃ t, pfP s A e5 = t := ⟨_, rfl⟩
  simp only [h9] at C6
  have H9 : Hid (e9 = e6 ∧ (e9 = 0 → e5 = 0 ∧ a9 = a6 ∧ P9 = P6)) := Lib.hid (by
    by_cases he : e5 = 0
    · have hA := (HPD.out he).1
      rw [hA, HPP.out, Prod.mk.injEq, Prod.mk.injEq] at h9
      exact ⟨h9.2.2.symm, fun _ => ⟨he, h9.2.1.symm, h9.1.symm⟩⟩
    · have q1 : (pfP s A e5).2.2 = e5 := pf_codec.stay he
      have q2 : (pfP s a5 e5).2.2 = e5 := pf_codec.stay he
      rw [h9] at q1
      rw [HPP.out] at q2
      simp only at q1 q2
      exact ⟨by rw [q1, q2], fun h => absurd (by rw [← q1]; exact h) he⟩)
  obtain ⟨Bc, hBc⟩ : ∃ x, W7.heap.size = x := ⟨_, rfl⟩
  go_upto_region 16 with (first | (go_at_call 69; refine (C6 _ _ hR).mono ?_; rintro e w1 ⟨cct, ca, cn, cc, cxs, A9, rfl, hM, hcn, hcc, hcM, hR, _, hk, hcd⟩; have hG := hk.row5 hG hgb; have hZ := hk.row5 hZ hzb; have hgl := Nat.lt_of_lt_of_le hgl hk.size; have hbel := hbel.trans (hk.below hwb hbel.size); have hL := hL.same (SameT.kept hk hbB) (SameT.kept hk hbB); have f48 := frozen_heap hG 48; have m48 : World.cell? _ ⟨g, 48, none⟩ = some (Value.int .i64 0) := back_cell hF hG 13; have f49 := frozen_heap hG 49; have m49 : World.cell? _ ⟨g, 49, none⟩ = some (Value.slice none 0 0) := back_cell hF hG 14))
  rw [hBc] at hM
  have hgC : g < Bc := by omega
  have hbC : b < Bc := by omega
  have HCD := Lib.hid hcd
  clear hcd
  refine wp_nameE _ (fun W8 hX => ?_)
  have hR : QAt b W8 s A9 e9 := by rw [hX]; exact ((hR.put8 hgb _).put8 hgb _)
  have hZ : W8.heap[w.heap.size]? = some (.cells (MsgV.zero 0).row 34 (0, 0)) := by rw [hX]; exact (row_oth (row_oth hZ hgz) hgz)
  have hbel : Below w.heap.size w W8 := by rw [hX]; exact ((hbel.setCell (p := ⟨g, 48, none⟩) hwg _).setCell (p := ⟨g, 49, none⟩) hwg _)
  have hG : W8.heap[g]? = some (.cells ((MsgV.zero 5).front ++ [Value.string sp, Value.int .i64 sc, Value.string dp, Value.int .i64 dc, Value.int .i64 sq, Value.string da, Value.int .i64 th, Value.int .i64 ta, Value.string ⟨#[]⟩, Value.int .i64 nx, Value.int .i64 he, Value.int .i64 pct, Value.slice pa pn pc, Value.int .i64 cct, Value.slice ca cn cc]).toArray 34 (0, 0)) := by rw [hX]; exact (back_put hF (back_put hF hG 13 (.int .i64 cct)) 14 (.slice ca cn cc))
  have hgl : g < W8.heap.size := (Array.getElem?_eq_some_iff.1 hG).1
  have hL : lvsHeld W8 Bp pa pxs := by rw [hX]; exact ((hL.same (SameT.put hgB) (SameT.put hgB)).same (SameT.put hgB) (SameT.put hgB))
  have hM : lvsHeld W8 Bc ca cxs := by rw [hX]; exact ((hM.same (SameT.put hgC) (SameT.put hgC)).same (SameT.put hgC) (SameT.put hgC))
  clear hX
  clear C6 f48 f49 m48 m49
  have q0 := (cell_heap hG 0).trans (show _ = some (Value.int .i64 5) from rfl)
  obtain ⟨RW, hRW⟩ : ∃ q : MsgV, (⟨5, 0, 0, zeroM, sp, sc, dp, dc, sq, da, th, ta, ⟨#[]⟩, nx, he, pct, pa, pn, pc, pxs, cct, ca, cn, cc, cxs⟩ : MsgV) = q := ⟨_, rfl⟩
  have hG : W8.heap[g]? = some (.cells RW.row 34 (0, 0)) := by rw [← hRW, MsgV.row_split]; exact hG
  have hm : RW.ok W8 := by rw [← hRW]; exact ⟨hL.at, hpn, hpc, hpM, hM.at, hcn, hcc, hcM, by unfold maxLen; simp only; omega, by unfold maxLen; simp only; omega⟩
  have hmh : RW.heldM W8 g := by rw [← hRW]; exact ⟨hL.mono (by omega), hM.mono (by omega)⟩
  have hmd : e9 = 0 → RW.d = md := fun h0 => by obtain ⟨q1, q2, q3⟩ := H9.out.2 h0; rw [← HMD.out, ← hRW, ← (HPD.out q1).2, ← q3, ← (HCD.out h0).2]; unfold MsgV.d; rfl
  have hee : e9 = e6 := H9.out.1
  have hep : endF s A9 e9 = endF s a6 e6 := by rw [endF_err (a' := a6) (fun h => by rw [(HCD.out h).1, (H9.out.2 h).2.1]), hee]
  have HMDD := Lib.hid hmd
  have HEE := Lib.hid hee
  clear hRW hmd hee HMD
  have CE := qend_any _ _ _ _ _ hR
  rw [hep] at CE
  obtain ⟨E9, h9e⟩ : ∃ E, endF s a6 e6 = E := ⟨_, rfl⟩
  have hD := HD.out
  rw [h9e] at hD CE
  have H0 : Hid (E9 = 0 → e9 = 0) := Lib.hid fun h => by rw [← h9e, ← hep] at h; exact (endF_ok h).1
  have HD2 := Lib.hid hD
  clear hD h9e hep HD
  by_cases hE : E9 = 0
  · subst hE
    have hmd := HMDD.out (H0.out rfl)
    have CM := fun W (hb : Below W8.heap.size W8 W) => refMayMsg_any RW W (hm.below hb)
    rw [may_eq, hmd] at CM
    cases hM : mayD md
    · simp only [hM] at CM
      have hDv : Hid (decMsg s = (MsgD.zero 0, 1)) := Lib.hid (by rw [HD2.out, if_pos rfl, hM]; rfl)
      go_upto_region 20 with (first | (refine wpList_load_midG 34 (.tmp 5) rfl g 0 rfl RW.row.toList _ (rangeAt_row5 hG) Try.underlying34 rfl (msg_info _) (by first | rfl | (simp [Region.wanted, yielded, *]; done)) ?_; rw [Array.toArray_toList]) | (go_at_call 70; refine CE.mono ?_; rintro e w5 ⟨rfl, hb⟩; have hb5 := hb; have hZ := cells_of hZ hb (by omega); have hG := cells_of hG hb hgl; have hbel := hbel.trans (hb.mono hbel.size)) | (go_at_call 22; refine (CM _ hb5).mono ?_; rintro e w6 ⟨rfl, hb⟩; have hb6 := hb; have h5s := hb5.size; have hZ := cells_of hZ hb (by omega); have hbel := hbel.trans (hb.mono hbel.size)))
      go_step
      refine wpList_build0 rfl 34 rfl (build_msg0 _) ?_
      simp only [Act.put, List.setIfInBounds_toArray, List.set_cons_succ, List.set_cons_zero]
      go_wp2_with (refine wpList_storeRowTo (Z := (MsgV.zero 0).row) rfl (.tmp 2) (.tmp 66) 34 rfl (by rw [MsgV.row_size]; kernel_rfl) rfl (by rfl) hZ (by simp only [MsgV.row_size]) (MsgV.row_one _) ?_)
      have hZ2 := setRow_heap _ _ _ (MsgV.zero 0).row _ _ hZ
      have hrd := run_loadVar_mid (P := Try.prog) _ w.heap.size 0 34 (MsgV.zero 0).row.toList _ (rangeAt_row5 hZ2) Try.underlying34 rfl (by rw [Array.length_toList, MsgV.row_size]; kernel_rfl)
      rw [Array.toArray_toList] at hrd
      refine bodyPost_ret (v := .tuple #[.agg (MsgV.zero 0).row, .int .i64 1]) ?_ rfl ?_
      · simp [results, Try.results21, asAddr, hrd]
        try rfl
      exact ⟨MsgV.zero 0, by rw [hDv.out], msg_ok_zero 0 _, ⟨lvsHeld.nil _ _, lvsHeld.nil _ _⟩, by rw [hDv.out]; rfl, below_setRow hbel (Nat.le_refl _) _⟩
    · simp only [hM] at CM
      have hDv : Hid (decMsg s = (md, 0)) := Lib.hid (by rw [HD2.out, if_pos rfl, hM]; rfl)
      go_wp2_with (first | (refine wpList_load_midG 34 (.tmp 5) rfl g 0 rfl RW.row.toList _ (rangeAt_row5 hG) Try.underlying34 rfl (msg_info _) (by first | rfl | (simp [Region.wanted, yielded, *]; done)) ?_; rw [Array.toArray_toList]) | (refine wpList_load_mid rfl 34 (.tmp 5) rfl g 0 rfl RW.row.toList _ (rangeAt_row5 hG) Try.underlying34 rfl (msg_info _) ?_; rw [Array.toArray_toList]) | (go_at_call 70; refine CE.mono ?_; rintro e w5 ⟨rfl, hb⟩; have hb5 := hb; have hZ := cells_of hZ hb (by omega); have hG := cells_of hG hb hgl; have hbel := hbel.trans (hb.mono hbel.size)) | (go_at_call 22; refine (CM _ hb5).mono ?_; rintro e w6 ⟨rfl, hb⟩; have hb6 := hb; have h5s := hb5.size; have hZ := cells_of hZ hb (by omega); have hG := cells_of hG hb (by omega); have hbel := hbel.trans (hb.mono hbel.size)) | (refine wpList_storeRowTo (Z := RW.row) rfl (.tmp 2) (.tmp 68) 34 rfl (by rw [MsgV.row_size]; kernel_rfl) rfl (by rfl) hZ (by simp only [MsgV.row_size]) (MsgV.row_one _) ?_))
      have hZ2 := setRow_heap _ _ _ RW.row _ _ hZ
      have hrd := run_loadVar_mid (P := Try.prog) _ w.heap.size 0 34 RW.row.toList _ (rangeAt_row5 hZ2) Try.underlying34 rfl (by rw [Array.length_toList, MsgV.row_size]; kernel_rfl)
      rw [Array.toArray_toList] at hrd
      refine bodyPost_ret (v := .tuple #[.agg RW.row, .int .i64 0]) ?_ rfl ?_
      · simp [results, Try.results21, asAddr, hrd]
        try rfl
      have hb56 := hb5.trans (hb6.mono hb5.size)
      have hmh := (hmh.same (SameT.below hb56) (SameT.below hb56)).same (SameT.setRow (cs := RW.row) hzg) (SameT.setRow hzg)
      exact ⟨RW, by rw [hDv.out], hm.held hmh, hmh.mono (Nat.le_of_lt hzg), by rw [hDv.out]; exact hmd, below_setRow hbel (Nat.le_refl _) _⟩
  · have hE0 : (E9 == 0) = false := beq_eq_false_iff_ne.2 hE
    have hDv : Hid (decMsg s = (MsgD.zero 0, E9)) := Lib.hid (by rw [HD2.out, if_neg hE])
    go_upto_region 20 with (go_at_call 70; refine CE.mono ?_; rintro e w5 ⟨rfl, hb⟩; have hZ := cells_of hZ hb (by omega); have hbel := hbel.trans (hb.mono hbel.size); clear hb)
    go_step
    refine wpList_build0 rfl 34 rfl (build_msg0 _) ?_
    simp only [Act.put, List.setIfInBounds_toArray, List.set_cons_succ, List.set_cons_zero]
    go_wp2_with (refine wpList_storeRowTo (Z := (MsgV.zero 0).row) rfl (.tmp 2) (.tmp 66) 34 rfl (by rw [MsgV.row_size]; kernel_rfl) rfl (by rfl) hZ (by simp only [MsgV.row_size]) (MsgV.row_one _) ?_)
    have hZ2 := setRow_heap _ _ _ (MsgV.zero 0).row _ _ hZ
    have hrd := run_loadVar_mid (P := Try.prog) _ w.heap.size 0 34 (MsgV.zero 0).row.toList _ (rangeAt_row5 hZ2) Try.underlying34 rfl (by rw [Array.length_toList, MsgV.row_size]; kernel_rfl)
    rw [Array.toArray_toList] at hrd
    refine bodyPost_ret (v := .tuple #[.agg (MsgV.zero 0).row, .int .i64 E9]) ?_ rfl ?_
    · simp [results, Try.results21, asAddr, hrd]
      try rfl
    exact ⟨MsgV.zero 0, by rw [hDv.out], msg_ok_zero 0 _, ⟨lvsHeld.nil _ _, lvsHeld.nil _ _⟩, by rw [hDv.out]; rfl, below_setRow hbel (Nat.le_refl _) _⟩
set_option maxRecDepth 100000 in
set_option maxHeartbeats 12800000 in
theorem refDec_E (s : ByteArray) (w : World) (hs : s.size ≤ 1000000000) (kd a1 e1 : Int) (h1 : numG s 0 0 1 5 = (kd, a1, e1)) (hk1 : kd ≠ 1) (hk3 : kd ≠ 3) (hk4 : kd ≠ 4) (hk5 : kd ≠ 5) :
    Calls Try.prog 21 #[.string s] w fun e w' => decPost w s e w' := by
  have hp : (0 : Int) ≤ 0 ∧ (0 : Int) ≤ s.size := ⟨by decide, by omega⟩
  have p1 := numG_in (err := 0) (least := 1) (most := 5) hp
  rw [h1] at p1
  simp only at p1
  have hk6 : kd ≤ 5 := by have := numG_le (s := s) (a := 0) (e := 0); rw [h1] at this; exact this
  have C2 := fun b W h => rdPk_any b W s a1 e1 h hs
  have p2 := pkG_in (e := e1) p1
  have z2 := pkG_size s a1 e1
  obtain ⟨⟨⟨⟨sp, sc⟩, ⟨dp, dc⟩, sq, da, th, ta⟩, a2, e2⟩, h2⟩ : ∃ t, pkP s a1 e1 = t := ⟨_, rfl⟩
  have gq := h2
  rw [pkP_eq] at gq
  simp only [Prod.mk.injEq] at gq
  obtain ⟨⟨⟨g1, g2⟩, ⟨g3, g4⟩, g5, g6, g7, g8⟩, g9, g10⟩ := gq
  simp only [g1, g2, g3, g4, g5, g6, g7, g8, g9, g10] at C2
  rw [g9] at p2
  rw [g1, g3] at z2
  clear g1 g2 g3 g4 g5 g6 g7 g8 g9 g10
  have zs := z2.1
  have zd := z2.2
  clear z2
  have p3 := numG_in (err := e2) (least := 1) (most := 1099511627776) p2
  obtain ⟨⟨he, a3, e3⟩, h3⟩ : ∃ t, numG s a2 e2 1 1099511627776 = t := ⟨_, rfl⟩
  rw [h3] at p3
  simp only at p3
  have C3 := fun b W h => qnumK_all b W s a2 e2 1 1099511627776 h hs
  simp only [h3] at C3
  have C4 := fun b W h => rdPf_any b W s a3 e3 h hs p3
  obtain ⟨⟨P4, a4, e4⟩, h4⟩ : ∃ t, pfP s a3 e3 = t := ⟨_, rfl⟩
  unfold rdPfPost at C4
  simp only [h4] at C4
  have hE : msgP s 0 0 = (mkE kd (((sp, sc), (dp, dc), sq, da, th, ta), he, P4), a4, e4) := by
    unfold msgP mapP seqP nP
    simp only [h1]
    unfold bodyP
    rw [if_neg hk1, if_neg hk3, if_neg hk4, if_neg hk5]
    unfold mapP seqP nP
    simp only [h2, h3, h4]
  obtain ⟨md, hmd9⟩ : ∃ x, mkE kd (((sp, sc), (dp, dc), sq, da, th, ta), he, P4) = x := ⟨_, rfl⟩
  rw [hmd9] at hE
  have HMD := Lib.hid hmd9
  have HD : Hid (decMsg s = if endF s a4 e4 = 0 then (bif mayD md then (md, 0) else (MsgD.zero 0, 1)) else (MsgD.zero 0, endF s a4 e4)) := Lib.hid (by unfold decMsg decP; simp only [hE])
  have C1 := fun b W h => qnumK_all b W s 0 0 1 5 h hs
  simp only [h1] at C1
  clear hE h1 hmd9 h2 h3 h4
  have d1 : (kd == 1) = false := beq_eq_false_iff_ne.2 hk1
  have d3 : (kd == 3) = false := beq_eq_false_iff_ne.2 hk3
  have d4 : decide (4 ≤ kd) = false := decide_eq_false (by omega)
  have d5 : (kd == 5) = false := beq_eq_false_iff_ne.2 hk5
  have hz0 := al2_0 w (.cells #[.int .i64 0, .int .i64 0, .int .i64 0, .int .u8 0, .int .u8 0, .int .u8 0, .int .u8 0, .int .u8 0, .int .u8 0, .int .u8 0, .int .u8 0, .int .u8 0, .int .u8 0, .int .u8 0, .int .u8 0, .int .u8 0, .int .u8 0, .int .u8 0, .int .u8 0, .int .u8 0, .int .u8 0, .int .u8 0, .int .u8 0, .int .u8 0, .int .u8 0, .int .u8 0, .int .u8 0, .int .u8 0, .int .u8 0, .int .u8 0, .int .u8 0, .int .u8 0, .int .u8 0, .int .u8 0, .int .u8 0, .string ⟨#[]⟩, .int .i64 0, .string ⟨#[]⟩, .int .i64 0, .int .i64 0, .string ⟨#[]⟩, .int .i64 0, .int .i64 0, .string ⟨#[]⟩, .int .i64 0, .int .i64 0, .int .i64 0, .slice none 0 0, .int .i64 0, .slice none 0 0] 34) (.cells #[.string s, .int .i64 0, .int .i64 0] 96)
  have hg0 := al2_1 w (.cells #[.int .i64 0, .int .i64 0, .int .i64 0, .int .u8 0, .int .u8 0, .int .u8 0, .int .u8 0, .int .u8 0, .int .u8 0, .int .u8 0, .int .u8 0, .int .u8 0, .int .u8 0, .int .u8 0, .int .u8 0, .int .u8 0, .int .u8 0, .int .u8 0, .int .u8 0, .int .u8 0, .int .u8 0, .int .u8 0, .int .u8 0, .int .u8 0, .int .u8 0, .int .u8 0, .int .u8 0, .int .u8 0, .int .u8 0, .int .u8 0, .int .u8 0, .int .u8 0, .int .u8 0, .int .u8 0, .int .u8 0, .string ⟨#[]⟩, .int .i64 0, .string ⟨#[]⟩, .int .i64 0, .int .i64 0, .string ⟨#[]⟩, .int .i64 0, .int .i64 0, .string ⟨#[]⟩, .int .i64 0, .int .i64 0, .int .i64 0, .slice none 0 0, .int .i64 0, .slice none 0 0] 34) (.cells #[.string s, .int .i64 0, .int .i64 0] 96)
  have hbA := al2_below w (.cells #[.int .i64 0, .int .i64 0, .int .i64 0, .int .u8 0, .int .u8 0, .int .u8 0, .int .u8 0, .int .u8 0, .int .u8 0, .int .u8 0, .int .u8 0, .int .u8 0, .int .u8 0, .int .u8 0, .int .u8 0, .int .u8 0, .int .u8 0, .int .u8 0, .int .u8 0, .int .u8 0, .int .u8 0, .int .u8 0, .int .u8 0, .int .u8 0, .int .u8 0, .int .u8 0, .int .u8 0, .int .u8 0, .int .u8 0, .int .u8 0, .int .u8 0, .int .u8 0, .int .u8 0, .int .u8 0, .int .u8 0, .string ⟨#[]⟩, .int .i64 0, .string ⟨#[]⟩, .int .i64 0, .int .i64 0, .string ⟨#[]⟩, .int .i64 0, .int .i64 0, .string ⟨#[]⟩, .int .i64 0, .int .i64 0, .int .i64 0, .slice none 0 0, .int .i64 0, .slice none 0 0] 34) (.cells #[.string s, .int .i64 0, .int .i64 0] 96)
  go_enter Try.func21, Try.ntmps21
  go_upto_region 2 with fail
  refine wp_nameE _ (fun W1 hW => ?_)
  have hZ : W1.heap[w.heap.size]? = some (.cells (MsgV.zero 0).row 34 (0, 0)) := by rw [hW, ← zero_row]; exact hz0
  have hR : QAt (w.heap.size + 1) W1 s 0 0 := by rw [hW]; exact hg0
  have hbel : Below w.heap.size w W1 := by rw [hW]; exact hbA
  obtain ⟨b, hb9⟩ : ∃ b, w.heap.size + 1 = b := ⟨_, rfl⟩
  simp only [hb9] at hR ⊢
  have hzb : w.heap.size ≠ b := by omega
  have hwb : w.heap.size ≤ b := by omega
  clear hW hz0 hg0 hbA hb9
  iterate 6 go_step
  go_at_call 65
  refine (C1 _ _ hR).mono ?_
  rintro e w2 ⟨rfl, hR, hk⟩
  have hZ := hk.row5 hZ hzb
  have hbel := hbel.trans (hk.below hwb hbel.size)
  clear hk C1
  simp only []
  go_step
  refine wpList_build1 rfl 34 0 (.tmp 11) rfl rfl (build_msg kd _) ?_
  simp only [Act.put, List.setIfInBounds_toArray, List.set_cons_succ, List.set_cons_zero]
  iterate 3 go_step
  refine wpList_storeRowTo (Z := (MsgV.zero kd).row) rfl (.tmp 5) (.tmp 12) 34 rfl (by rw [MsgV.row_size]; kernel_rfl) rfl (by rfl) (heap_push _ _ _) (by rw [MsgV.row_size]; rfl) (MsgV.row_one _) ?_
  go_step
  simp only [Act.put]
  go_upto_region 3 with fail
  refine wp_nameE _ (fun W3 hX => ?_)
  have hb3 : Below w2.heap.size w2 W3 := by rw [hX]; exact below_setRow (Below.alloc (Below.refl _ _) (Nat.le_refl _) _) (Nat.le_refl _) _
  have hG : W3.heap[w2.heap.size]? = some (.cells (MsgV.zero kd).row 34 (0, 0)) := by rw [hX]; exact setRow_heap _ _ _ _ _ _ (heap_push _ _ _)
  have hbl := hR.lt
  have hR := hR.below hb3 hR.lt
  have hZ := cells_of hZ hb3 (by omega)
  have hbel := hbel.trans (hb3.mono hbel.size)
  obtain ⟨g, hgg⟩ : ∃ g, w2.heap.size = g := ⟨_, rfl⟩
  rw [hgg] at hG
  simp only [hgg]
  have hgb : g ≠ b := by omega
  have hgz : g ≠ w.heap.size := by omega
  have hwg : w.heap.size ≤ g := by omega
  have hzg : w.heap.size < g := by omega
  have hblg : b < g := by omega
  have hgl : g < W3.heap.size := (Array.getElem?_eq_some_iff.1 hG).1
  clear hX hb3 hgg hbl
  have q0 := (cell_heap hG 0).trans (show _ = some (Value.int .i64 kd) from rfl)
  have hG : W3.heap[g]? = some (.cells ((MsgV.zero kd).front ++ [Value.string ⟨#[]⟩, Value.int .i64 0, Value.string ⟨#[]⟩, Value.int .i64 0, Value.int .i64 0, Value.string ⟨#[]⟩, Value.int .i64 0, Value.int .i64 0, Value.string ⟨#[]⟩, Value.int .i64 0, Value.int .i64 0, Value.int .i64 0, Value.slice none 0 0, Value.int .i64 0, Value.slice none 0 0]).toArray 34 (0, 0)) := by rw [hG, MsgV.row_split]; rfl
  have hF : (MsgV.zero kd).front.length = 35 := MsgV.front_len _
  go_upto_region 8 with (first | (go_at_call 67; refine (C2 _ _ hR).mono ?_; rintro e w1 ⟨rfl, hR, hk⟩; have hG := hk.row5 hG hgb; have hZ := hk.row5 hZ hzb; have hgl := Nat.lt_of_lt_of_le hgl hk.size; have hbel := hbel.trans (hk.below hwb hbel.size); have f35 := frozen_heap hG 35; have m35 : World.cell? _ ⟨g, 35, none⟩ = some (Value.string ⟨#[]⟩) := back_cell hF hG 0; have f36 := frozen_heap hG 36; have m36 : World.cell? _ ⟨g, 36, none⟩ = some (Value.int .i64 0) := back_cell hF hG 1; have f37 := frozen_heap hG 37; have m37 : World.cell? _ ⟨g, 37, none⟩ = some (Value.string ⟨#[]⟩) := back_cell hF hG 2; have f38 := frozen_heap hG 38; have m38 : World.cell? _ ⟨g, 38, none⟩ = some (Value.int .i64 0) := back_cell hF hG 3; have f39 := frozen_heap hG 39; have m39 : World.cell? _ ⟨g, 39, none⟩ = some (Value.int .i64 0) := back_cell hF hG 4; have f40 := frozen_heap hG 40; have m40 : World.cell? _ ⟨g, 40, none⟩ = some (Value.string ⟨#[]⟩) := back_cell hF hG 5; have f41 := frozen_heap hG 41; have m41 : World.cell? _ ⟨g, 41, none⟩ = some (Value.int .i64 0) := back_cell hF hG 6; have f42 := frozen_heap hG 42; have m42 : World.cell? _ ⟨g, 42, none⟩ = some (Value.int .i64 0) := back_cell hF hG 7))
  refine wp_nameE _ (fun W4 hX => ?_)
  have hR : QAt b W4 s a2 e2 := by rw [hX]; exact ((((((((hR.put8 hgb _).put8 hgb _).put8 hgb _).put8 hgb _).put8 hgb _).put8 hgb _).put8 hgb _).put8 hgb _)
  have hZ : W4.heap[w.heap.size]? = some (.cells (MsgV.zero 0).row 34 (0, 0)) := by rw [hX]; exact (row_oth (row_oth (row_oth (row_oth (row_oth (row_oth (row_oth (row_oth hZ hgz) hgz) hgz) hgz) hgz) hgz) hgz) hgz)
  have hbel : Below w.heap.size w W4 := by rw [hX]; exact ((((((((hbel.setCell (p := ⟨g, 35, none⟩) hwg _).setCell (p := ⟨g, 36, none⟩) hwg _).setCell (p := ⟨g, 37, none⟩) hwg _).setCell (p := ⟨g, 38, none⟩) hwg _).setCell (p := ⟨g, 39, none⟩) hwg _).setCell (p := ⟨g, 40, none⟩) hwg _).setCell (p := ⟨g, 41, none⟩) hwg _).setCell (p := ⟨g, 42, none⟩) hwg _)
  have hG : W4.heap[g]? = some (.cells ((MsgV.zero kd).front ++ [Value.string sp, Value.int .i64 sc, Value.string dp, Value.int .i64 dc, Value.int .i64 sq, Value.string da, Value.int .i64 th, Value.int .i64 ta, Value.string ⟨#[]⟩, Value.int .i64 0, Value.int .i64 0, Value.int .i64 0, Value.slice none 0 0, Value.int .i64 0, Value.slice none 0 0]).toArray 34 (0, 0)) := by rw [hX]; exact (back_put hF (back_put hF (back_put hF (back_put hF (back_put hF (back_put hF (back_put hF (back_put hF hG 0 (.string sp)) 1 (.int .i64 sc)) 2 (.string dp)) 3 (.int .i64 dc)) 4 (.int .i64 sq)) 5 (.string da)) 6 (.int .i64 th)) 7 (.int .i64 ta))
  have hgl : g < W4.heap.size := (Array.getElem?_eq_some_iff.1 hG).1
  clear hX
  clear C2 f35 m35 f36 m36 f37 m37 f38 m38 f39 m39 f40 m40 f41 m41 f42 m42
  have q0 := (cell_heap hG 0).trans (show _ = some (Value.int .i64 kd) from rfl)
  go_upto_region 13 with (first | (go_at_call 65; refine (C3 _ _ hR).mono ?_; rintro e w1 ⟨rfl, hR, hk⟩; have hG := hk.row5 hG hgb; have hZ := hk.row5 hZ hzb; have hgl := Nat.lt_of_lt_of_le hgl hk.size; have hbel := hbel.trans (hk.below hwb hbel.size); have f45 := frozen_heap hG 45; have m45 : World.cell? _ ⟨g, 45, none⟩ = some (Value.int .i64 0) := back_cell hF hG 10))
  refine wp_nameE _ (fun W5 hX => ?_)
  have hR : QAt b W5 s a3 e3 := by rw [hX]; exact (hR.put8 hgb _)
  have hZ : W5.heap[w.heap.size]? = some (.cells (MsgV.zero 0).row 34 (0, 0)) := by rw [hX]; exact (row_oth hZ hgz)
  have hbel : Below w.heap.size w W5 := by rw [hX]; exact (hbel.setCell (p := ⟨g, 45, none⟩) hwg _)
  have hG : W5.heap[g]? = some (.cells ((MsgV.zero kd).front ++ [Value.string sp, Value.int .i64 sc, Value.string dp, Value.int .i64 dc, Value.int .i64 sq, Value.string da, Value.int .i64 th, Value.int .i64 ta, Value.string ⟨#[]⟩, Value.int .i64 0, Value.int .i64 he, Value.int .i64 0, Value.slice none 0 0, Value.int .i64 0, Value.slice none 0 0]).toArray 34 (0, 0)) := by rw [hX]; exact (back_put hF hG 10 (.int .i64 he))
  have hgl : g < W5.heap.size := (Array.getElem?_eq_some_iff.1 hG).1
  clear hX
  clear C3 f45 m45
  have q0 := (cell_heap hG 0).trans (show _ = some (Value.int .i64 kd) from rfl)
  obtain ⟨Bp, hBp⟩ : ∃ x, W5.heap.size = x := ⟨_, rfl⟩
  go_upto_region 14 with (first | (go_at_call 69; refine (C4 _ _ hR).mono ?_; rintro e w1 ⟨pct, pa, pn, pc, pxs, A, rfl, hL, hpn, hpc, hpM, hR, hpA, hk, hpd⟩; have hG := hk.row5 hG hgb; have hZ := hk.row5 hZ hzb; have hgl := Nat.lt_of_lt_of_le hgl hk.size; have hbel := hbel.trans (hk.below hwb hbel.size); have f46 := frozen_heap hG 46; have m46 : World.cell? _ ⟨g, 46, none⟩ = some (Value.int .i64 0) := back_cell hF hG 11; have f47 := frozen_heap hG 47; have m47 : World.cell? _ ⟨g, 47, none⟩ = some (Value.slice none 0 0) := back_cell hF hG 12))
  rw [hBp] at hL
  have hgB : g < Bp := by omega
  have hbB : b < Bp := by omega
  have HPD := Lib.hid hpd
  have HPA := Lib.hid hpA
  clear hpd hpA
  refine wp_nameE _ (fun W6 hX => ?_)
  have hR : QAt b W6 s A e4 := by rw [hX]; exact ((hR.put8 hgb _).put8 hgb _)
  have hZ : W6.heap[w.heap.size]? = some (.cells (MsgV.zero 0).row 34 (0, 0)) := by rw [hX]; exact (row_oth (row_oth hZ hgz) hgz)
  have hbel : Below w.heap.size w W6 := by rw [hX]; exact ((hbel.setCell (p := ⟨g, 46, none⟩) hwg _).setCell (p := ⟨g, 47, none⟩) hwg _)
  have hG : W6.heap[g]? = some (.cells ((MsgV.zero kd).front ++ [Value.string sp, Value.int .i64 sc, Value.string dp, Value.int .i64 dc, Value.int .i64 sq, Value.string da, Value.int .i64 th, Value.int .i64 ta, Value.string ⟨#[]⟩, Value.int .i64 0, Value.int .i64 he, Value.int .i64 pct, Value.slice pa pn pc, Value.int .i64 0, Value.slice none 0 0]).toArray 34 (0, 0)) := by rw [hX]; exact (back_put hF (back_put hF hG 11 (.int .i64 pct)) 12 (.slice pa pn pc))
  have hgl : g < W6.heap.size := (Array.getElem?_eq_some_iff.1 hG).1
  have hL : lvsHeld W6 Bp pa pxs := by rw [hX]; exact ((hL.same (SameT.put hgB) (SameT.put hgB)).same (SameT.put hgB) (SameT.put hgB))
  clear hX
  clear C4 f46 f47 m46 m47
  have q0 := (cell_heap hG 0).trans (show _ = some (Value.int .i64 kd) from rfl)
  obtain ⟨RW, hRW⟩ : ∃ q : MsgV, (⟨kd, 0, 0, zeroM, sp, sc, dp, dc, sq, da, th, ta, ⟨#[]⟩, 0, he, pct, pa, pn, pc, pxs, 0, none, 0, 0, []⟩ : MsgV) = q := ⟨_, rfl⟩
  have hG : W6.heap[g]? = some (.cells RW.row 34 (0, 0)) := by rw [← hRW, MsgV.row_split]; exact hG
  have hm : RW.ok W6 := by rw [← hRW]; exact ⟨hL.at, hpn, hpc, hpM, LvsAt.nil _ _, rfl, Nat.le_refl _, Nat.zero_le _, by unfold maxLen; simp only; omega, by unfold maxLen; simp only; omega⟩
  have hmh : RW.heldM W6 g := by rw [← hRW]; exact ⟨hL.mono (by omega), lvsHeld.nil _ _⟩
  have hmd : e4 = 0 → RW.d = md := fun h0 => by rw [← HMD.out, ← hRW, ← (HPD.out h0).2]; unfold MsgV.d; simp only [List.map_nil]; rfl
  have hee : e4 = e4 := rfl
  have hep : endF s A e4 = endF s a4 e4 := by rw [endF_err (a' := a4) (fun h => (HPD.out h).1), hee]
  have HMDD := Lib.hid hmd
  have HEE := Lib.hid hee
  clear hRW hmd hee HMD
  have CE := qend_any _ _ _ _ _ hR
  rw [hep] at CE
  obtain ⟨E9, h9e⟩ : ∃ E, endF s a4 e4 = E := ⟨_, rfl⟩
  have hD := HD.out
  rw [h9e] at hD CE
  have H0 : Hid (E9 = 0 → e4 = 0) := Lib.hid fun h => by rw [← h9e, ← hep] at h; exact (endF_ok h).1
  have HD2 := Lib.hid hD
  clear hD h9e hep HD
  by_cases hE : E9 = 0
  · subst hE
    have hmd := HMDD.out (H0.out rfl)
    have CM := fun W (hb : Below W6.heap.size W6 W) => refMayMsg_any RW W (hm.below hb)
    rw [may_eq, hmd] at CM
    cases hM : mayD md
    · simp only [hM] at CM
      have hDv : Hid (decMsg s = (MsgD.zero 0, 1)) := Lib.hid (by rw [HD2.out, if_pos rfl, hM]; rfl)
      go_upto_region 20 with (first | (refine wpList_load_midG 34 (.tmp 5) rfl g 0 rfl RW.row.toList _ (rangeAt_row5 hG) Try.underlying34 rfl (msg_info _) (by first | rfl | (simp [Region.wanted, yielded, *]; done)) ?_; rw [Array.toArray_toList]) | (go_at_call 70; refine CE.mono ?_; rintro e w5 ⟨rfl, hb⟩; have hb5 := hb; have hZ := cells_of hZ hb (by omega); have hG := cells_of hG hb hgl; have hbel := hbel.trans (hb.mono hbel.size)) | (go_at_call 22; refine (CM _ hb5).mono ?_; rintro e w6 ⟨rfl, hb⟩; have hb6 := hb; have h5s := hb5.size; have hZ := cells_of hZ hb (by omega); have hbel := hbel.trans (hb.mono hbel.size)))
      go_step
      refine wpList_build0 rfl 34 rfl (build_msg0 _) ?_
      simp only [Act.put, List.setIfInBounds_toArray, List.set_cons_succ, List.set_cons_zero]
      go_wp2_with (refine wpList_storeRowTo (Z := (MsgV.zero 0).row) rfl (.tmp 2) (.tmp 66) 34 rfl (by rw [MsgV.row_size]; kernel_rfl) rfl (by rfl) hZ (by simp only [MsgV.row_size]) (MsgV.row_one _) ?_)
      have hZ2 := setRow_heap _ _ _ (MsgV.zero 0).row _ _ hZ
      have hrd := run_loadVar_mid (P := Try.prog) _ w.heap.size 0 34 (MsgV.zero 0).row.toList _ (rangeAt_row5 hZ2) Try.underlying34 rfl (by rw [Array.length_toList, MsgV.row_size]; kernel_rfl)
      rw [Array.toArray_toList] at hrd
      refine bodyPost_ret (v := .tuple #[.agg (MsgV.zero 0).row, .int .i64 1]) ?_ rfl ?_
      · simp [results, Try.results21, asAddr, hrd]
        try rfl
      exact ⟨MsgV.zero 0, by rw [hDv.out], msg_ok_zero 0 _, ⟨lvsHeld.nil _ _, lvsHeld.nil _ _⟩, by rw [hDv.out]; rfl, below_setRow hbel (Nat.le_refl _) _⟩
    · simp only [hM] at CM
      have hDv : Hid (decMsg s = (md, 0)) := Lib.hid (by rw [HD2.out, if_pos rfl, hM]; rfl)
      go_wp2_with (first | (refine wpList_load_midG 34 (.tmp 5) rfl g 0 rfl RW.row.toList _ (rangeAt_row5 hG) Try.underlying34 rfl (msg_info _) (by first | rfl | (simp [Region.wanted, yielded, *]; done)) ?_; rw [Array.toArray_toList]) | (refine wpList_load_mid rfl 34 (.tmp 5) rfl g 0 rfl RW.row.toList _ (rangeAt_row5 hG) Try.underlying34 rfl (msg_info _) ?_; rw [Array.toArray_toList]) | (go_at_call 70; refine CE.mono ?_; rintro e w5 ⟨rfl, hb⟩; have hb5 := hb; have hZ := cells_of hZ hb (by omega); have hG := cells_of hG hb hgl; have hbel := hbel.trans (hb.mono hbel.size)) | (go_at_call 22; refine (CM _ hb5).mono ?_; rintro e w6 ⟨rfl, hb⟩; have hb6 := hb; have h5s := hb5.size; have hZ := cells_of hZ hb (by omega); have hG := cells_of hG hb (by omega); have hbel := hbel.trans (hb.mono hbel.size)) | (refine wpList_storeRowTo (Z := RW.row) rfl (.tmp 2) (.tmp 68) 34 rfl (by rw [MsgV.row_size]; kernel_rfl) rfl (by rfl) hZ (by simp only [MsgV.row_size]) (MsgV.row_one _) ?_))
      have hZ2 := setRow_heap _ _ _ RW.row _ _ hZ
      have hrd := run_loadVar_mid (P := Try.prog) _ w.heap.size 0 34 RW.row.toList _ (rangeAt_row5 hZ2) Try.underlying34 rfl (by rw [Array.length_toList, MsgV.row_size]; kernel_rfl)
      rw [Array.toArray_toList] at hrd
      refine bodyPost_ret (v := .tuple #[.agg RW.row, .int .i64 0]) ?_ rfl ?_
      · simp [results, Try.results21, asAddr, hrd]
        try rfl
      have hb56 := hb5.trans (hb6.mono hb5.size)
      have hmh := (hmh.same (SameT.below hb56) (SameT.below hb56)).same (SameT.setRow (cs := RW.row) hzg) (SameT.setRow hzg)
      exact ⟨RW, by rw [hDv.out], hm.held hmh, hmh.mono (Nat.le_of_lt hzg), by rw [hDv.out]; exact hmd, below_setRow hbel (Nat.le_refl _) _⟩
  · have hE0 : (E9 == 0) = false := beq_eq_false_iff_ne.2 hE
    have hDv : Hid (decMsg s = (MsgD.zero 0, E9)) := Lib.hid (by rw [HD2.out, if_neg hE])
    go_upto_region 20 with (go_at_call 70; refine CE.mono ?_; rintro e w5 ⟨rfl, hb⟩; have hZ := cells_of hZ hb (by omega); have hbel := hbel.trans (hb.mono hbel.size); clear hb)
    go_step
    refine wpList_build0 rfl 34 rfl (build_msg0 _) ?_
    simp only [Act.put, List.setIfInBounds_toArray, List.set_cons_succ, List.set_cons_zero]
    go_wp2_with (refine wpList_storeRowTo (Z := (MsgV.zero 0).row) rfl (.tmp 2) (.tmp 66) 34 rfl (by rw [MsgV.row_size]; kernel_rfl) rfl (by rfl) hZ (by simp only [MsgV.row_size]) (MsgV.row_one _) ?_)
    have hZ2 := setRow_heap _ _ _ (MsgV.zero 0).row _ _ hZ
    have hrd := run_loadVar_mid (P := Try.prog) _ w.heap.size 0 34 (MsgV.zero 0).row.toList _ (rangeAt_row5 hZ2) Try.underlying34 rfl (by rw [Array.length_toList, MsgV.row_size]; kernel_rfl)
    rw [Array.toArray_toList] at hrd
    refine bodyPost_ret (v := .tuple #[.agg (MsgV.zero 0).row, .int .i64 E9]) ?_ rfl ?_
    · simp [results, Try.results21, asAddr, hrd]
      try rfl
    exact ⟨MsgV.zero 0, by rw [hDv.out], msg_ok_zero 0 _, ⟨lvsHeld.nil _ _, lvsHeld.nil _ _⟩, by rw [hDv.out]; rfl, below_setRow hbel (Nat.le_refl _) _⟩
theorem refDecMsg_any (s : ByteArray) (w : World) (hs : s.size ≤ 1000000000) :
    Calls Try.prog 21 #[.string s] w fun e w' => decPost w s e w' := by
  obtain ⟨⟨kd, a1, e1⟩, h1⟩ : ∃ t, numG s 0 0 1 5 = t := ⟨_, rfl⟩
  by_cases k1 : kd = 1
  · subst k1; exact refDec_1 s w hs a1 e1 h1
  by_cases k3 : kd = 3
  · subst k3; exact refDec_3 s w hs a1 e1 h1
  by_cases k4 : kd = 4
  · subst k4; exact refDec_4 s w hs a1 e1 h1
  by_cases k5 : kd = 5
  · subst k5; exact refDec_5 s w hs a1 e1 h1
  exact refDec_E s w hs kd a1 e1 h1 k1 k3 k4 k5
end Go.Proofs.Ythipnkbfdkmhaaa
