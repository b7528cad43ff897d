/- MsgBack walked. -/
import Derived.Test.YthipnkbfdkmhaaaMsg13
import Derived.Test.YthipnkbfdkmhaaaMsg9
import Derived.Deep.MidRow
import Derived.WalkKit
import Derived.ProofKit
import Derived.Handy
import Derived.Below
import Derived.Lib.Hide
import Derived.IntWalk
import Derived.Outline
import Derived.WalkLawsBesides
import Derived.WalkSpells
namespace Go.Proofs.Ythipnkbfdkmhaaa
open Go.RowKit
attribute [local go_sem] strV
set_option linter.unusedVariables false
theorem app_data (S : ByteArray) : (S ++ (⟨#[0]⟩ : ByteArray)).data.toList = S.data.toList ++ [0] := by simp
set_option maxRecDepth 100000 in
set_option maxHeartbeats 12800000 in
theorem walkMsgBack (m : MsgV) (s : ByteArray) (w : World) (hm : m.ok w) (hs : s.size ≤ maxLen) :
    Calls Try.prog 3 #[.agg m.row, .string s] w fun e w' => e = .returned (.bool true) ∧ Below w.heap.size w w' := by
  have CL := fun W (hb : Below w.heap.size w W) => lightM_any m W (hm.below hb)
  have CM := fun W (hb : Below w.heap.size w W) => msgMay_any m W (hm.below hb)
  have CE := fun W (hb : Below w.heap.size w W) => msgEncode_any m W (hm.below hb)
  obtain ⟨kl, el⟩ : ∃ b, lightM m = b := ⟨_, rfl⟩
  obtain ⟨km, em⟩ : ∃ b, mayMsgB m = b := ⟨_, rfl⟩
  simp only [el] at CL
  simp only [em] at CM
  have HEM := Lib.hid em
  clear el em
  go_enter Try.func3, Try.ntmps3
  go_upto_region 1 with fail
  refine wp_nameE _ (fun W1 hX => ?_)
  have hg : W1.heap[w.heap.size]? = some (.cells m.row 34 (0, 0)) := by rw [hX]; exact heap_push _ _ _
  have hbel : Below w.heap.size w W1 := by rw [hX]; exact Below.alloc (Below.refl _ _) (Nat.le_refl _) _
  clear hX
  have hgl : w.heap.size < W1.heap.size := (Array.getElem?_eq_some_iff.1 hg).1
  go_upto_region 3 with (go_at_call 14; refine (first8_any _).mono ?_; rintro e w2 ⟨rfl, hb⟩; have hg := cells_of hg hb hgl; have hgl := Nat.lt_of_lt_of_le hgl hb.size; have hbel := hbel.trans (hb.mono hbel.size); clear hb)
  cases kl
  · go_wp2_with (first | (refine wpList_load_mid rfl 34 (.tmp 2) rfl w.heap.size 0 rfl m.row.toList _ (rangeAt_row5 hg) Try.underlying34 rfl (msg_info _) ?_; rw [Array.toArray_toList]) | (go_at_call 14; refine (first8_any _).mono ?_; rintro e w2 ⟨rfl, hb⟩; have hg := cells_of hg hb hgl; have hgl := Nat.lt_of_lt_of_le hgl hb.size; have hbel := hbel.trans (hb.mono hbel.size); clear hb) | (go_at_call 15; refine (CL _ hbel).mono ?_; rintro e w2 ⟨rfl, hb⟩; have hg := cells_of hg hb hgl; have hgl := Nat.lt_of_lt_of_le hgl hb.size; have hbel := hbel.trans (hb.mono hbel.size); clear hb))
    go_ret
    exact ⟨by first | rfl | simp, hbel⟩
  by_cases c2 : 4000 < s.size
  · have d2 : decide (4000 < (s.size : Int)) = true := decide_eq_true (by omega)
    go_wp2_with (first | (refine wpList_load_mid rfl 34 (.tmp 2) rfl w.heap.size 0 rfl m.row.toList _ (rangeAt_row5 hg) Try.underlying34 rfl (msg_info _) ?_; rw [Array.toArray_toList]) | (go_at_call 14; refine (first8_any _).mono ?_; rintro e w2 ⟨rfl, hb⟩; have hg := cells_of hg hb hgl; have hgl := Nat.lt_of_lt_of_le hgl hb.size; have hbel := hbel.trans (hb.mono hbel.size); clear hb) | (go_at_call 15; refine (CL _ hbel).mono ?_; rintro e w2 ⟨rfl, hb⟩; have hg := cells_of hg hb hgl; have hgl := Nat.lt_of_lt_of_le hgl hb.size; have hbel := hbel.trans (hb.mono hbel.size); clear hb))
    go_ret
    exact ⟨by first | rfl | simp, hbel⟩
  have d2 : decide (4000 < (s.size : Int)) = false := decide_eq_false (by omega)
  have CD := fun W => msgDecode_any s W (by omega)
  cases km
  · rw [show encMsg m = .tuple #[.string ⟨#[]⟩, .int .i64 1] by unfold encMsg; rw [HEM.out]; rfl] at CE
    go_upto_region 16 with (first | (refine wpList_load_mid rfl 34 (.tmp 2) rfl w.heap.size 0 rfl m.row.toList _ (rangeAt_row5 hg) Try.underlying34 rfl (msg_info _) ?_; rw [Array.toArray_toList]) | (refine wpList_load_midG 34 (.tmp 2) rfl w.heap.size 0 rfl m.row.toList _ (rangeAt_row5 hg) Try.underlying34 rfl (msg_info _) (by first | rfl | (simp [Region.wanted, yielded]; done)) ?_; rw [Array.toArray_toList]) | (go_at_call 14; refine (first8_any _).mono ?_; rintro e w2 ⟨rfl, hb⟩; have hg := cells_of hg hb hgl; have hgl := Nat.lt_of_lt_of_le hgl hb.size; have hbel := hbel.trans (hb.mono hbel.size); clear hb) | (go_at_call 15; refine (CL _ hbel).mono ?_; rintro e w2 ⟨rfl, hb⟩; have hg := cells_of hg hb hgl; have hgl := Nat.lt_of_lt_of_le hgl hb.size; have hbel := hbel.trans (hb.mono hbel.size); clear hb) | (go_at_call 17; refine (CM _ hbel).mono ?_; rintro e w2 ⟨rfl, hb⟩; have hg := cells_of hg hb hgl; have hgl := Nat.lt_of_lt_of_le hgl hb.size; have hbel := hbel.trans (hb.mono hbel.size); clear hb) | (go_at_call 16; refine (CE _ hbel).mono ?_; rintro e w2 ⟨rfl, hb⟩; have hg := cells_of hg hb hgl; have hgl := Nat.lt_of_lt_of_le hgl hb.size; have hbel := hbel.trans (hb.mono hbel.size); clear hb))
    go_upto_region 17 with (first | (go_at_call 18; (with_reducible refine (CD _).mono ?_); rintro e w9 ⟨y, rfl, hy, _, hyd, hb⟩; have hg := cells_of hg hb hgl; have hgl := Nat.lt_of_lt_of_le hgl hb.size; have hbel := hbel.trans (hb.mono hbel.size); clear hb) | (refine wpList_storeRowTo (Z := y.row) rfl (.tmp 13) (.tmp 82) 34 rfl (by rw [MsgV.row_size]; kernel_rfl) rfl (by rfl) (heap_push _ _ _) (by rw [MsgV.row_size]; rfl) (MsgV.row_one _) ?_))
    refine wp_nameE _ (fun W9 hX => ?_)
    have hb9 : Below w9.heap.size w9 W9 := by rw [hX]; exact below_setRow (Below.alloc (Below.refl _ _) (Nat.le_refl _) _) (Nat.le_refl _) _
    have hy9 : W9.heap[w9.heap.size]? = some (.cells y.row 34 (0, 0)) := by rw [hX]; exact setRow_heap _ _ _ _ _ _ (heap_push _ _ _)
    clear hX
    have hy := hy.below hb9
    have hbel := hbel.trans (hb9.mono hbel.size)
    clear hg hgl hb9
    obtain ⟨gy, hgy⟩ : ∃ x, w9.heap.size = x := ⟨_, rfl⟩
    simp only [hgy] at hy9 ⊢
    clear hgy
    have hyl : gy < W9.heap.size := (Array.getElem?_eq_some_iff.1 hy9).1
    obtain ⟨⟨yd, f⟩, hdx⟩ : ∃ x, decMsg s = x := ⟨_, rfl⟩
    rw [hdx] at hyd
    simp only [hdx] at hyd ⊢
    by_cases hf : f = 0
    · subst hf
      obtain ⟨m1, m2⟩ := decMsg_back (v := s) (by rw [hdx])
      rw [hdx] at m1 m2
      simp only at m1 m2
      have hM : mayMsgB y = true := by rw [may_eq, hyd]; exact m1
      obtain ⟨k1, k5, _⟩ := may_kd hM
      have hS : (⟨(msgBy y).toArray⟩ : ByteArray) = s := by rw [msgBy_d k1 k5, hyd, m2]
      have CE2 := fun W (hb : Below W9.heap.size W9 W) => msgEncode_any y W (hy.below hb)
      have CM2 := fun W (hb : Below W9.heap.size W9 W) => msgMay_any y W (hy.below hb)
      rw [show encMsg y = .tuple #[.string s, .int .i64 0] by unfold encMsg; rw [hM, hS]; rfl] at CE2
      simp only [hM] at CM2
      have hb0 : Below W9.heap.size W9 W9 := Below.refl _ _
      clear m1 m2 hM k1 k5 hS hyd hdx CE CM CD CL
      go_wp2_with (first | (refine wpList_load_mid rfl 34 (.tmp 13) rfl gy 0 rfl y.row.toList _ (rangeAt_row5 hy9) Try.underlying34 rfl (msg_info _) ?_; rw [Array.toArray_toList]) | (refine wpList_load_midG 34 (.tmp 13) rfl gy 0 rfl y.row.toList _ (rangeAt_row5 hy9) Try.underlying34 rfl (msg_info _) (by first | rfl | (simp [Region.wanted, yielded]; done)) ?_; rw [Array.toArray_toList]) | (go_at_call 16; refine (CE2 _ hb0).mono ?_; rintro e w2 ⟨rfl, hb⟩; have hy9 := cells_of hy9 hb hyl; have hb0 := hb0.trans (hb.mono (Nat.le_refl _)); have hyl := Nat.lt_of_lt_of_le hyl hb.size; have hbel := hbel.trans (hb.mono hbel.size); clear hb) | (go_at_call 17; refine (CM2 _ hb0).mono ?_; rintro e w2 ⟨rfl, hb⟩; have hbel := hbel.trans (hb.mono hbel.size); clear hb))
      go_ret
      exact ⟨by first | rfl | simp, hbel⟩
    · have f0 : (f == 0) = false := beq_eq_false_iff_ne.2 hf
      have hz := decMsg_err (v := s) (by rw [hdx]; exact hf)
      rw [hdx] at hz
      simp only at hz
      have CS := fun W (hb : Below W9.heap.size W9 W) => msgSame_any y (MsgV.zero 0) W (hy.below hb) (msg_ok_zero 0 W)
      rw [show msgB y (MsgV.zero 0) = true from (msgB_iff _ _).2 (by rw [hyd, hz]; rfl)] at CS
      clear hz hyd hdx CE CM CD CL
      go_upto_region 18 with fail
      go_step
      refine wpList_load_mid rfl 34 (.tmp 13) rfl gy 0 rfl y.row.toList _ (rangeAt_row5 hy9) Try.underlying34 rfl (msg_info _) ?_
      rw [Array.toArray_toList]
      refine wpList_build0 rfl 34 rfl (build_msg0 _) ?_
      simp only [Act.put, List.setIfInBounds_toArray, List.set_cons_succ, List.set_cons_zero]
      go_wp2_with (go_at_call 19; refine (CS _ (Below.refl _ _)).mono ?_; rintro e w2 ⟨rfl, hb⟩; have hbel := hbel.trans (hb.mono hbel.size); clear hb)
      go_ret
      exact ⟨by first | rfl | simp, hbel⟩
  obtain ⟨k1, k5, _⟩ := may_kd HEM.out
  have hml := msgBy_le HEM.out
  have hpos := msgS_pos HEM.out
  rw [show msgS m = (⟨(msgBy m).toArray⟩ : ByteArray) by unfold msgS; rw [HEM.out]; rfl] at hpos
  rw [show encMsg m = .tuple #[.string ⟨(msgBy m).toArray⟩, .int .i64 0] by unfold encMsg; rw [HEM.out]; rfl] at CE
  obtain ⟨S, hS⟩ : ∃ S : ByteArray, (⟨(msgBy m).toArray⟩ : ByteArray) = S := ⟨_, rfl⟩
  have hSl : S.data.toList = msgDB m.d := by rw [← hS, ← msgBy_d k1 k5]
  have hSs : S.size ≤ 6000 := by rw [← hS, bytes_size]; exact hml
  rw [hS] at hpos
  rw [hS] at CE
  have hmd : mayD m.d = true := by rw [← may_eq]; exact HEM.out
  obtain ⟨n, hn⟩ : ∃ n, S.size = n + 1 := ⟨S.size - 1, by omega⟩
  have D1 := decMsg_enc hmd hSl
  have D2 := decMsg_more hmd (v := S ++ (⟨#[0]⟩ : ByteArray)) (b := 0) (B := []) (by rw [app_data, hSl])
  have D3 := decMsg_cut hmd (v := S.extract 0 n) (k := n) (by rw [← hSl]; simp [ByteArray.data_extract, Array.toList_extract, List.extract_eq_take_drop]) (by rw [← hSl, str_len]; omega)
  have X1 := fun W => dec_at S 0 (by omega) (by rw [D1]) W
  have X2 := fun W => dec_at (S ++ (⟨#[0]⟩ : ByteArray)) 3 (by rw [ByteArray.size_append]; show S.size + 1 ≤ _; omega) (by rw [D2]) W
  have X3 := fun W => dec_at (S.extract 0 n) 2 (by simp; omega) (by rw [D3]) W
  rw [D1] at X1
  have hcat : ¬ 9223372036854775807 < S.size + 1 := by omega
  have se1 : (S.toList == []) = false := (str_nonempty (by omega)).1
  clear D1 D2 D3 hS hSl hml hmd k1 k5
  go_upto_region 10 with (first | (refine wpList_load_mid rfl 34 (.tmp 2) rfl w.heap.size 0 rfl m.row.toList _ (rangeAt_row5 hg) Try.underlying34 rfl (msg_info _) ?_; rw [Array.toArray_toList]) | (refine wpList_load_midG 34 (.tmp 2) rfl w.heap.size 0 rfl m.row.toList _ (rangeAt_row5 hg) Try.underlying34 rfl (msg_info _) (by first | rfl | (simp [Region.wanted, yielded]; done)) ?_; rw [Array.toArray_toList]) | (go_at_call 14; refine (first8_any _).mono ?_; rintro e w2 ⟨rfl, hb⟩; have hg := cells_of hg hb hgl; have hgl := Nat.lt_of_lt_of_le hgl hb.size; have hbel := hbel.trans (hb.mono hbel.size); clear hb) | (go_at_call 15; refine (CL _ hbel).mono ?_; rintro e w2 ⟨rfl, hb⟩; have hg := cells_of hg hb hgl; have hgl := Nat.lt_of_lt_of_le hgl hb.size; have hbel := hbel.trans (hb.mono hbel.size); clear hb) | (go_at_call 17; refine (CM _ hbel).mono ?_; rintro e w2 ⟨rfl, hb⟩; have hg := cells_of hg hb hgl; have hgl := Nat.lt_of_lt_of_le hgl hb.size; have hbel := hbel.trans (hb.mono hbel.size); clear hb) | (go_at_call 16; refine (CE _ hbel).mono ?_; rintro e w2 ⟨rfl, hb⟩; have hg := cells_of hg hb hgl; have hgl := Nat.lt_of_lt_of_le hgl hb.size; have hbel := hbel.trans (hb.mono hbel.size); clear hb) | (go_at_call 18; (with_reducible refine (X1 _).mono ?_); rintro e wx ⟨x, rfl, hx, _, hxd, hb⟩; have hg := cells_of hg hb hgl; have hgl := Nat.lt_of_lt_of_le hgl hb.size; have hbel := hbel.trans (hb.mono hbel.size); clear hb) | (refine wpList_storeRowTo (Z := x.row) rfl (.tmp 7) (.tmp 43) 34 rfl (by rw [MsgV.row_size]; kernel_rfl) rfl (by rfl) (heap_push _ _ _) (by rw [MsgV.row_size]; rfl) (MsgV.row_one _) ?_))
  refine wp_nameE _ (fun W3 hX => ?_)
  have hb3 : Below wx.heap.size wx W3 := by rw [hX]; exact below_setRow (Below.alloc (Below.refl _ _) (Nat.le_refl _) _) (Nat.le_refl _) _
  have hx3 : W3.heap[wx.heap.size]? = some (.cells x.row 34 (0, 0)) := by rw [hX]; exact setRow_heap _ _ _ _ _ _ (heap_push _ _ _)
  clear hX
  have hx := hx.below hb3
  have hg := cells_of hg hb3 hgl
  have hgl := Nat.lt_of_lt_of_le hgl hb3.size
  have hbel := hbel.trans (hb3.mono hbel.size)
  obtain ⟨gx, hgx⟩ : ∃ z, wx.heap.size = z := ⟨_, rfl⟩
  simp only [hgx] at hx3 ⊢
  clear hgx hb3
  have hxl : gx < W3.heap.size := (Array.getElem?_eq_some_iff.1 hx3).1
  have hb0 : Below W3.heap.size W3 W3 := Below.refl _ _
  go_upto_region 11 with (first | (go_at_call 18; (with_reducible refine (X2 _).mono ?_); rintro e wx2 ⟨x2, rfl, _, _, _, hb⟩; have hg := cells_of hg hb hgl; have hgl := Nat.lt_of_lt_of_le hgl hb.size; have hbel := hbel.trans (hb.mono hbel.size); have hx3 := cells_of hx3 hb hxl; have hxl := Nat.lt_of_lt_of_le hxl hb.size; have hb0 := hb0.trans hb; clear hb) | (refine wpList_storeRowTo (Z := x2.row) rfl (.tmp 9) (.tmp 49) 34 rfl (by rw [MsgV.row_size]; kernel_rfl) rfl (by rfl) (heap_push _ _ _) (by rw [MsgV.row_size]; rfl) (MsgV.row_one _) ?_))
  refine wp_nameE _ (fun W4 hX => ?_)
  have hb4 : Below wx2.heap.size wx2 W4 := by rw [hX]; exact below_setRow (Below.alloc (Below.refl _ _) (Nat.le_refl _) _) (Nat.le_refl _) _
  clear hX
  have hg := cells_of hg hb4 hgl
  have hx3 := cells_of hx3 hb4 hxl
  have hgl := Nat.lt_of_lt_of_le hgl hb4.size
  have hxl := Nat.lt_of_lt_of_le hxl hb4.size
  have hbel := hbel.trans (hb4.mono hbel.size)
  have hb0 := hb0.trans (hb4.mono hb0.size)
  clear hb4
  have CS := fun W (h1 : Below W3.heap.size W3 W) (h2 : Below w.heap.size w W) => msgSame_any x m W (hx.below h1) (hm.below h2)
  rw [show msgB x m = true from (msgB_iff _ _).2 hxd] at CS
  have n0 : (0 : Int) ≤ (n : Int) := by omega
  go_upto_region 13 with (first | (refine wpList_load_mid rfl 34 (.tmp 7) rfl gx 0 rfl x.row.toList _ (rangeAt_row5 hx3) Try.underlying34 rfl (msg_info _) ?_; rw [Array.toArray_toList]) | (refine wpList_load_midG 34 (.tmp 7) rfl gx 0 rfl x.row.toList _ (rangeAt_row5 hx3) Try.underlying34 rfl (msg_info _) (by first | rfl | (simp [Region.wanted, yielded]; done)) ?_; rw [Array.toArray_toList]) | (refine wpList_load_mid rfl 34 (.tmp 2) rfl w.heap.size 0 rfl m.row.toList _ (rangeAt_row5 hg) Try.underlying34 rfl (msg_info _) ?_; rw [Array.toArray_toList]) | (refine wpList_load_midG 34 (.tmp 2) rfl w.heap.size 0 rfl m.row.toList _ (rangeAt_row5 hg) Try.underlying34 rfl (msg_info _) (by first | rfl | (simp [Region.wanted, yielded]; done)) ?_; rw [Array.toArray_toList]) | (go_at_call 19; refine (CS _ hb0 hbel).mono ?_; rintro e w5 ⟨rfl, hb⟩; have hg := cells_of hg hb hgl; have hgl := Nat.lt_of_lt_of_le hgl hb.size; have hbel := hbel.trans (hb.mono hbel.size); clear hb))
  go_upto_region 16 with (first | (go_at_call 18; (with_reducible refine (X3 _).mono ?_); rintro e wx4 ⟨x4, rfl, _, _, _, hb⟩; have hg := cells_of hg hb hgl; have hgl := Nat.lt_of_lt_of_le hgl hb.size; have hbel := hbel.trans (hb.mono hbel.size); clear hb) | (refine wpList_storeRowTo (Z := x4.row) rfl (.tmp 11) (.tmp 75) 34 rfl (by rw [MsgV.row_size]; kernel_rfl) rfl (by rfl) (heap_push _ _ _) (by rw [MsgV.row_size]; rfl) (MsgV.row_one _) ?_))
  refine wp_nameE _ (fun W6 hX => ?_)
  have hb6 : Below wx4.heap.size wx4 W6 := by rw [hX]; exact below_setRow (Below.alloc (Below.refl _ _) (Nat.le_refl _) _) (Nat.le_refl _) _
  clear hX
  have hg := cells_of hg hb6 hgl
  have hgl := Nat.lt_of_lt_of_le hgl hb6.size
  have hbel := hbel.trans (hb6.mono hbel.size)
  clear hb6
  go_upto_region 17 with (first | (go_at_call 18; (with_reducible refine (CD _).mono ?_); rintro e w9 ⟨y, rfl, hy, _, hyd, hb⟩; have hg := cells_of hg hb hgl; have hgl := Nat.lt_of_lt_of_le hgl hb.size; have hbel := hbel.trans (hb.mono hbel.size); clear hb) | (refine wpList_storeRowTo (Z := y.row) rfl (.tmp 13) (.tmp 82) 34 rfl (by rw [MsgV.row_size]; kernel_rfl) rfl (by rfl) (heap_push _ _ _) (by rw [MsgV.row_size]; rfl) (MsgV.row_one _) ?_))
  refine wp_nameE _ (fun W9 hX => ?_)
  have hb9 : Below w9.heap.size w9 W9 := by rw [hX]; exact below_setRow (Below.alloc (Below.refl _ _) (Nat.le_refl _) _) (Nat.le_refl _) _
  have hy9 : W9.heap[w9.heap.size]? = some (.cells y.row 34 (0, 0)) := by rw [hX]; exact setRow_heap _ _ _ _ _ _ (heap_push _ _ _)
  clear hX
  have hy := hy.below hb9
  have hbel := hbel.trans (hb9.mono hbel.size)
  clear hg hgl hb9
  obtain ⟨gy, hgy⟩ : ∃ x, w9.heap.size = x := ⟨_, rfl⟩
  simp only [hgy] at hy9 ⊢
  clear hgy
  have hyl : gy < W9.heap.size := (Array.getElem?_eq_some_iff.1 hy9).1
  obtain ⟨⟨yd, f⟩, hdx⟩ : ∃ x, decMsg s = x := ⟨_, rfl⟩
  rw [hdx] at hyd
  simp only [hdx] at hyd ⊢
  by_cases hf : f = 0
  · subst hf
    obtain ⟨m1, m2⟩ := decMsg_back (v := s) (by rw [hdx])
    rw [hdx] at m1 m2
    simp only at m1 m2
    have hM : mayMsgB y = true := by rw [may_eq, hyd]; exact m1
    obtain ⟨k1, k5, _⟩ := may_kd hM
    have hS : (⟨(msgBy y).toArray⟩ : ByteArray) = s := by rw [msgBy_d k1 k5, hyd, m2]
    have CE2 := fun W (hb : Below W9.heap.size W9 W) => msgEncode_any y W (hy.below hb)
    have CM2 := fun W (hb : Below W9.heap.size W9 W) => msgMay_any y W (hy.below hb)
    rw [show encMsg y = .tuple #[.string s, .int .i64 0] by unfold encMsg; rw [hM, hS]; rfl] at CE2
    simp only [hM] at CM2
    have hb0 : Below W9.heap.size W9 W9 := Below.refl _ _
    clear m1 m2 hM k1 k5 hS hyd hdx CE CM CD CL
    go_wp2_with (first | (refine wpList_load_mid rfl 34 (.tmp 13) rfl gy 0 rfl y.row.toList _ (rangeAt_row5 hy9) Try.underlying34 rfl (msg_info _) ?_; rw [Array.toArray_toList]) | (refine wpList_load_midG 34 (.tmp 13) rfl gy 0 rfl y.row.toList _ (rangeAt_row5 hy9) Try.underlying34 rfl (msg_info _) (by first | rfl | (simp [Region.wanted, yielded]; done)) ?_; rw [Array.toArray_toList]) | (go_at_call 16; refine (CE2 _ hb0).mono ?_; rintro e w2 ⟨rfl, hb⟩; have hy9 := cells_of hy9 hb hyl; have hb0 := hb0.trans (hb.mono (Nat.le_refl _)); have hyl := Nat.lt_of_lt_of_le hyl hb.size; have hbel := hbel.trans (hb.mono hbel.size); clear hb) | (go_at_call 17; refine (CM2 _ hb0).mono ?_; rintro e w2 ⟨rfl, hb⟩; have hbel := hbel.trans (hb.mono hbel.size); clear hb))
    go_ret
    exact ⟨by first | rfl | simp, hbel⟩
  · have f0 : (f == 0) = false := beq_eq_false_iff_ne.2 hf
    have hz := decMsg_err (v := s) (by rw [hdx]; exact hf)
    rw [hdx] at hz
    simp only at hz
    have CS := fun W (hb : Below W9.heap.size W9 W) => msgSame_any y (MsgV.zero 0) W (hy.below hb) (msg_ok_zero 0 W)
    rw [show msgB y (MsgV.zero 0) = true from (msgB_iff _ _).2 (by rw [hyd, hz]; rfl)] at CS
    clear hz hyd hdx CE CM CD CL
    go_upto_region 18 with fail
    go_step
    refine wpList_load_mid rfl 34 (.tmp 13) rfl gy 0 rfl y.row.toList _ (rangeAt_row5 hy9) Try.underlying34 rfl (msg_info _) ?_
    rw [Array.toArray_toList]
    refine wpList_build0 rfl 34 rfl (build_msg0 _) ?_
    simp only [Act.put, List.setIfInBounds_toArray, List.set_cons_succ, List.set_cons_zero]
    go_wp2_with (go_at_call 19; refine (CS _ (Below.refl _ _)).mono ?_; rintro e w2 ⟨rfl, hb⟩; have hbel := hbel.trans (hb.mono hbel.size); clear hb)
    go_ret
    exact ⟨by first | rfl | simp, hbel⟩
end Go.Proofs.Ythipnkbfdkmhaaa
