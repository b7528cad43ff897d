/- MsgTells walked. -/
import Derived.Test.YthipnkbfdkmhaaaRd3
import Derived.Test.YthipnkbfdkmhaaaGF
import Derived.Test.YthipnkbfdkmhaaaRf1
import Derived.Test.YthipnkbfdkmhaaaTx4
import Derived.Test.YthipnkbfdkmhaaaPlain
import Derived.Test.YthipnkbfdkmhaaaMsg13
import Derived.Test.YthipnkbfdkmhaaaGG
import Derived.Deep.MidRow
import Derived.WalkKit
import Derived.ProofKit
import Derived.Handy
import Derived.Below
import Derived.Lib.Hide
import Derived.IntWalk
import Derived.Outline
import Derived.WalkLawsBesides
import Derived.WalkSpells
namespace Go.Proofs.Ythipnkbfdkmhaaa
open Go.RowKit
attribute [local go_sem] strV
set_option linter.unusedVariables false
theorem light_smallT {m : MsgV} (h : lightM m = true) : m.d.small := by
  obtain ⟨_, l2, l3⟩ := light_msg h
  obtain ⟨p1, p2, _⟩ := light_pf l2
  obtain ⟨c1, c2, _⟩ := light_pf l3
  have key : ∀ xs : List LeafV, xs.length ≤ 5 → (∀ x ∈ xs, x.path.length ≤ 40) → smallL (xs.map LeafV.d) := fun xs h1 h2 => ⟨by rw [List.length_map]; omega, fun y hy => by
    obtain ⟨x, hx, rfl⟩ := List.mem_map.1 hy
    have := h2 x hx
    show x.path.length ≤ 1000
    omega⟩
  exact ⟨key _ p1 p2, key _ c1 c2⟩
def Fact.msgT (d : MsgD) : Fact := ⟨fun v w => ∃ q : MsgV, v = .agg q.row ∧ q.ok w ∧ q.d = d, fun v x y ⟨q, h1, h2, h3⟩ hb => ⟨q, h1, h2.below hb, h3⟩⟩
theorem encMsg_t (m : MsgV) : encMsg m = .tuple #[.string (msgS m), .int .i64 (bif mayMsgB m then 0 else 1)] := by
  unfold encMsg msgS
  cases mayMsgB m <;> rfl
set_option maxRecDepth 100000 in
set_option maxHeartbeats 12800000 in
theorem walkMsgTells (m n : MsgV) (s : ByteArray) (w : World) (hm : m.ok w) (hn : n.ok w) (hs : s.size ≤ maxLen) :
    Calls Try.prog 4 #[.agg m.row, .agg n.row, .string s] w fun e w' => e = .returned (.bool true) ∧ Below w.heap.size w w' := by
  have CLm := fun W (hb : Below w.heap.size w W) => lightM_any m W (hm.below hb)
  have CLn := fun W (hb : Below w.heap.size w W) => lightM_any n W (hn.below hb)
  obtain ⟨kl, el⟩ : ∃ b, lightM m = b := ⟨_, rfl⟩
  obtain ⟨kn, en⟩ : ∃ b, lightM n = b := ⟨_, rfl⟩
  simp only [el] at CLm
  simp only [en] at CLn
  have HEL := Lib.hid el
  clear el en
  have HMK := Lib.hid hm
  have HNK := Lib.hid hn
  clear hm hn
  have hz0 := al2_0 w (.cells m.row 34) (.cells n.row 34)
  have hz1 := al2_1 w (.cells m.row 34) (.cells n.row 34)
  have hbA := al2_below w (.cells m.row 34) (.cells n.row 34)
  go_enter Try.func4, Try.ntmps4
  go_upto_region 1 with fail
  refine wp_nameE _ (fun W1 hX => ?_)
  have hg : W1.heap[w.heap.size]? = some (.cells m.row 34 (0, 0)) := by rw [hX]; exact hz0
  have hn : W1.heap[w.heap.size + 1]? = some (.cells n.row 34 (0, 0)) := by rw [hX]; exact hz1
  have hbel : Below w.heap.size w W1 := by rw [hX]; exact hbA
  clear hX hz0 hz1 hbA
  have hgl : w.heap.size < W1.heap.size := (Array.getElem?_eq_some_iff.1 hg).1
  have hnl : w.heap.size + 1 < W1.heap.size := (Array.getElem?_eq_some_iff.1 hn).1
  go_upto_region 3 with (go_at_call 14; refine (first8_any _).mono ?_; rintro e w2 ⟨rfl, hb⟩; have hg := cells_of hg hb hgl; have hn := cells_of hn hb hnl; have hgl := Nat.lt_of_lt_of_le hgl hb.size; have hnl := Nat.lt_of_lt_of_le hnl hb.size; have hbel := hbel.trans (hb.mono hbel.size); clear hb)
  cases kl
  · go_wp2_with (first | (refine wpList_load_mid rfl 34 (.tmp 3) rfl w.heap.size 0 rfl m.row.toList _ (rangeAt_row5 hg) Try.underlying34 rfl (msg_info _) ?_; rw [Array.toArray_toList]) | (refine wpList_load_mid rfl 34 (.tmp 4) rfl (w.heap.size + 1) 0 rfl n.row.toList _ (rangeAt_row5 hn) Try.underlying34 rfl (msg_info _) ?_; rw [Array.toArray_toList]) | (refine wpList_load_midG 34 (.tmp 3) rfl w.heap.size 0 rfl m.row.toList _ (rangeAt_row5 hg) Try.underlying34 rfl (msg_info _) (by rfl) ?_; rw [Array.toArray_toList]) | (refine wpList_load_midG 34 (.tmp 4) rfl (w.heap.size + 1) 0 rfl n.row.toList _ (rangeAt_row5 hn) Try.underlying34 rfl (msg_info _) (by rfl) ?_; rw [Array.toArray_toList]) | (go_at_call 14; refine (first8_any _).mono ?_; rintro e w2 ⟨rfl, hb⟩; have hg := cells_of hg hb hgl; have hn := cells_of hn hb hnl; have hgl := Nat.lt_of_lt_of_le hgl hb.size; have hnl := Nat.lt_of_lt_of_le hnl hb.size; have hbel := hbel.trans (hb.mono hbel.size); clear hb) | (go_at_call 15; (with_reducible refine (CLm _ hbel).mono ?_); rintro e w2 ⟨rfl, hb⟩; have hg := cells_of hg hb hgl; have hn := cells_of hn hb hnl; have hgl := Nat.lt_of_lt_of_le hgl hb.size; have hnl := Nat.lt_of_lt_of_le hnl hb.size; have hbel := hbel.trans (hb.mono hbel.size); clear hb))
    go_ret
    exact ⟨by first | rfl | simp, hbel⟩
  cases kn
  · go_wp2_with (first | (refine wpList_load_mid rfl 34 (.tmp 3) rfl w.heap.size 0 rfl m.row.toList _ (rangeAt_row5 hg) Try.underlying34 rfl (msg_info _) ?_; rw [Array.toArray_toList]) | (refine wpList_load_mid rfl 34 (.tmp 4) rfl (w.heap.size + 1) 0 rfl n.row.toList _ (rangeAt_row5 hn) Try.underlying34 rfl (msg_info _) ?_; rw [Array.toArray_toList]) | (refine wpList_load_midG 34 (.tmp 3) rfl w.heap.size 0 rfl m.row.toList _ (rangeAt_row5 hg) Try.underlying34 rfl (msg_info _) (by rfl) ?_; rw [Array.toArray_toList]) | (refine wpList_load_midG 34 (.tmp 4) rfl (w.heap.size + 1) 0 rfl n.row.toList _ (rangeAt_row5 hn) Try.underlying34 rfl (msg_info _) (by rfl) ?_; rw [Array.toArray_toList]) | (go_at_call 14; refine (first8_any _).mono ?_; rintro e w2 ⟨rfl, hb⟩; have hg := cells_of hg hb hgl; have hn := cells_of hn hb hnl; have hgl := Nat.lt_of_lt_of_le hgl hb.size; have hnl := Nat.lt_of_lt_of_le hnl hb.size; have hbel := hbel.trans (hb.mono hbel.size); clear hb) | (go_at_call 15; (with_reducible refine (CLm _ hbel).mono ?_); rintro e w2 ⟨rfl, hb⟩; have hg := cells_of hg hb hgl; have hn := cells_of hn hb hnl; have hgl := Nat.lt_of_lt_of_le hgl hb.size; have hnl := Nat.lt_of_lt_of_le hnl hb.size; have hbel := hbel.trans (hb.mono hbel.size); clear hb) | (go_at_call 15; (with_reducible refine (CLn _ hbel).mono ?_); rintro e w2 ⟨rfl, hb⟩; have hg := cells_of hg hb hgl; have hn := cells_of hn hb hnl; have hgl := Nat.lt_of_lt_of_le hgl hb.size; have hnl := Nat.lt_of_lt_of_le hnl hb.size; have hbel := hbel.trans (hb.mono hbel.size); clear hb))
    go_ret
    exact ⟨by first | rfl | simp, hbel⟩
  by_cases c2 : 4000 < s.size
  · have d2 : decide (4000 < (s.size : Int)) = true := decide_eq_true (by omega)
    go_wp2_with (first | (refine wpList_load_mid rfl 34 (.tmp 3) rfl w.heap.size 0 rfl m.row.toList _ (rangeAt_row5 hg) Try.underlying34 rfl (msg_info _) ?_; rw [Array.toArray_toList]) | (refine wpList_load_mid rfl 34 (.tmp 4) rfl (w.heap.size + 1) 0 rfl n.row.toList _ (rangeAt_row5 hn) Try.underlying34 rfl (msg_info _) ?_; rw [Array.toArray_toList]) | (refine wpList_load_midG 34 (.tmp 3) rfl w.heap.size 0 rfl m.row.toList _ (rangeAt_row5 hg) Try.underlying34 rfl (msg_info _) (by rfl) ?_; rw [Array.toArray_toList]) | (refine wpList_load_midG 34 (.tmp 4) rfl (w.heap.size + 1) 0 rfl n.row.toList _ (rangeAt_row5 hn) Try.underlying34 rfl (msg_info _) (by rfl) ?_; rw [Array.toArray_toList]) | (go_at_call 14; refine (first8_any _).mono ?_; rintro e w2 ⟨rfl, hb⟩; have hg := cells_of hg hb hgl; have hn := cells_of hn hb hnl; have hgl := Nat.lt_of_lt_of_le hgl hb.size; have hnl := Nat.lt_of_lt_of_le hnl hb.size; have hbel := hbel.trans (hb.mono hbel.size); clear hb) | (go_at_call 15; (with_reducible refine (CLm _ hbel).mono ?_); rintro e w2 ⟨rfl, hb⟩; have hg := cells_of hg hb hgl; have hn := cells_of hn hb hnl; have hgl := Nat.lt_of_lt_of_le hgl hb.size; have hnl := Nat.lt_of_lt_of_le hnl hb.size; have hbel := hbel.trans (hb.mono hbel.size); clear hb) | (go_at_call 15; (with_reducible refine (CLn _ hbel).mono ?_); rintro e w2 ⟨rfl, hb⟩; have hg := cells_of hg hb hgl; have hn := cells_of hn hb hnl; have hgl := Nat.lt_of_lt_of_le hgl hb.size; have hnl := Nat.lt_of_lt_of_le hnl hb.size; have hbel := hbel.trans (hb.mono hbel.size); clear hb))
    go_ret
    exact ⟨by first | rfl | simp, hbel⟩
  have d2 : decide (4000 < (s.size : Int)) = false := decide_eq_false (by omega)
  have CE := fun W (hb : Below w.heap.size w W) => msgEncode_any m W (HMK.out.below hb)
  have CRE := fun W (hb : Below w.heap.size w W) => refEncMsg_any m W (HMK.out.below hb)
  simp only [encMsg_t] at CE CRE
  obtain ⟨S, hS⟩ : ∃ S, msgS m = S := ⟨_, rfl⟩
  obtain ⟨ft, hft⟩ : ∃ f : Int, (bif mayMsgB m then 0 else 1) = f := ⟨_, rfl⟩
  simp only [hS, hft] at CE CRE
  clear hft
  have HS := Lib.hid hS
  clear hS
  have CD := fun W => msgDecode_any s W (by omega)
  have CRD := fun W => refDecMsg_any s W (by omega)
  unfold decPost at CD CRD
  obtain ⟨⟨xd, dt⟩, hdx⟩ : ∃ x, decMsg s = x := ⟨_, rfl⟩
  simp only [hdx] at CD CRD
  clear hdx
  go_upto_region 7 with (first | (refine wpList_load_mid rfl 34 (.tmp 3) rfl w.heap.size 0 rfl m.row.toList _ (rangeAt_row5 hg) Try.underlying34 rfl (msg_info _) ?_; rw [Array.toArray_toList]) | (refine wpList_load_mid rfl 34 (.tmp 4) rfl (w.heap.size + 1) 0 rfl n.row.toList _ (rangeAt_row5 hn) Try.underlying34 rfl (msg_info _) ?_; rw [Array.toArray_toList]) | (refine wpList_load_midG 34 (.tmp 3) rfl w.heap.size 0 rfl m.row.toList _ (rangeAt_row5 hg) Try.underlying34 rfl (msg_info _) (by rfl) ?_; rw [Array.toArray_toList]) | (refine wpList_load_midG 34 (.tmp 4) rfl (w.heap.size + 1) 0 rfl n.row.toList _ (rangeAt_row5 hn) Try.underlying34 rfl (msg_info _) (by rfl) ?_; rw [Array.toArray_toList]) | (go_at_call 14; refine (first8_any _).mono ?_; rintro e w2 ⟨rfl, hb⟩; have hg := cells_of hg hb hgl; have hn := cells_of hn hb hnl; have hgl := Nat.lt_of_lt_of_le hgl hb.size; have hnl := Nat.lt_of_lt_of_le hnl hb.size; have hbel := hbel.trans (hb.mono hbel.size); clear hb) | (go_at_call 15; (with_reducible refine (CLm _ hbel).mono ?_); rintro e w2 ⟨rfl, hb⟩; have hg := cells_of hg hb hgl; have hn := cells_of hn hb hnl; have hgl := Nat.lt_of_lt_of_le hgl hb.size; have hnl := Nat.lt_of_lt_of_le hnl hb.size; have hbel := hbel.trans (hb.mono hbel.size); clear hb) | (go_at_call 15; (with_reducible refine (CLn _ hbel).mono ?_); rintro e w2 ⟨rfl, hb⟩; have hg := cells_of hg hb hgl; have hn := cells_of hn hb hnl; have hgl := Nat.lt_of_lt_of_le hgl hb.size; have hnl := Nat.lt_of_lt_of_le hnl hb.size; have hbel := hbel.trans (hb.mono hbel.size); clear hb) | (go_at_call 16; refine (CE _ hbel).mono ?_; rintro e w2 ⟨rfl, hb⟩; have hg := cells_of hg hb hgl; have hn := cells_of hn hb hnl; have hgl := Nat.lt_of_lt_of_le hgl hb.size; have hnl := Nat.lt_of_lt_of_le hnl hb.size; have hbel := hbel.trans (hb.mono hbel.size); clear hb) | (go_at_call 20; refine (CRE _ hbel).mono ?_; rintro e w2 ⟨rfl, hb⟩; have hg := cells_of hg hb hgl; have hn := cells_of hn hb hnl; have hgl := Nat.lt_of_lt_of_le hgl hb.size; have hnl := Nat.lt_of_lt_of_le hnl hb.size; have hbel := hbel.trans (hb.mono hbel.size); clear hb))
  go_upto_region 8 with (first | (go_at_call 18; (with_reducible refine (CD _).mono ?_); rintro e wd ⟨X, rfl, hv, _, hvd, hb⟩; have hg := cells_of hg hb hgl; have hn := cells_of hn hb hnl; have hgl := Nat.lt_of_lt_of_le hgl hb.size; have hnl := Nat.lt_of_lt_of_le hnl hb.size; have hbel := hbel.trans (hb.mono hbel.size); clear hb) | (refine wpList_storeRowTo (Z := X.row) rfl (.tmp 11) (.tmp 44) 34 rfl (by rw [MsgV.row_size]; kernel_rfl) rfl (by rfl) (heap_push _ _ _) (by first | rfl | (simp only [MsgV.row_size]; done) | (rw [MsgV.row_size]; rfl)) (MsgV.row_one _) ?_))
  refine wp_nameE _ (fun W3 hX => ?_)
  have hb3 : Below wd.heap.size wd W3 := by rw [hX]; exact below_setRow (Below.alloc (Below.refl _ _) (Nat.le_refl _) _) (Nat.le_refl _) _
  have hx3 : W3.heap[wd.heap.size]? = some (.cells X.row 34 (0, 0)) := by rw [hX]; exact setRow_heap _ _ _ _ _ _ (heap_push _ _ _)
  clear hX
  have okX := hv.below hb3
  have dX := hvd
  clear hv hvd
  have hg := cells_of hg hb3 hgl
  have hn := cells_of hn hb3 hnl
  have hgl := Nat.lt_of_lt_of_le hgl hb3.size
  have hnl := Nat.lt_of_lt_of_le hnl hb3.size
  have hbel := hbel.trans (hb3.mono hbel.size)
  obtain ⟨gx, hgx⟩ : ∃ z, wd.heap.size = z := ⟨_, rfl⟩
  rw [hgx] at hx3
  simp only [hgx]
  clear hgx hb3
  have hx3l : gx < W3.heap.size := (Array.getElem?_eq_some_iff.1 hx3).1
  go_upto_region 9 with (first | (go_at_call 21; (with_reducible refine (CRD _).mono ?_); rintro e wd ⟨Y, rfl, hv, _, hvd, hb⟩; have hg := cells_of hg hb hgl; have hn := cells_of hn hb hnl; have hgl := Nat.lt_of_lt_of_le hgl hb.size; have hnl := Nat.lt_of_lt_of_le hnl hb.size; have hbel := hbel.trans (hb.mono hbel.size); have hx3 := cells_of hx3 hb hx3l; have hx3l := Nat.lt_of_lt_of_le hx3l hb.size; have okX := okX.below hb; clear hb) | (refine wpList_storeRowTo (Z := Y.row) rfl (.tmp 13) (.tmp 49) 34 rfl (by rw [MsgV.row_size]; kernel_rfl) rfl (by rfl) (heap_push _ _ _) (by first | rfl | (simp only [MsgV.row_size]; done) | (rw [MsgV.row_size]; rfl)) (MsgV.row_one _) ?_))
  refine wp_nameE _ (fun W9 hX => ?_)
  have hb3 : Below wd.heap.size wd W9 := by rw [hX]; exact below_setRow (Below.alloc (Below.refl _ _) (Nat.le_refl _) _) (Nat.le_refl _) _
  have hy9 : W9.heap[wd.heap.size]? = some (.cells Y.row 34 (0, 0)) := by rw [hX]; exact setRow_heap _ _ _ _ _ _ (heap_push _ _ _)
  clear hX
  have okY := hv.below hb3
  have dY := hvd
  clear hv hvd
  have hg := cells_of hg hb3 hgl
  have hn := cells_of hn hb3 hnl
  have hgl := Nat.lt_of_lt_of_le hgl hb3.size
  have hnl := Nat.lt_of_lt_of_le hnl hb3.size
  have hbel := hbel.trans (hb3.mono hbel.size)
  have hx9 := cells_of hx3 hb3 hx3l
  have okX := okX.below hb3
  obtain ⟨gy, hgx⟩ : ∃ z, wd.heap.size = z := ⟨_, rfl⟩
  rw [hgx] at hy9
  simp only [hgx]
  clear hgx hb3
  have hy9l : gy < W9.heap.size := (Array.getElem?_eq_some_iff.1 hy9).1
  have hm9 := hg
  have hn9 := hn
  have hml9 := (Array.getElem?_eq_some_iff.1 hm9).1
  have hnl9 := (Array.getElem?_eq_some_iff.1 hn9).1
  have hxl9 := (Array.getElem?_eq_some_iff.1 hx9).1
  have hyl9 := (Array.getElem?_eq_some_iff.1 hy9).1
  have hbel9 := hbel
  have hmk := HMK.out.below hbel9
  have hnk := HNK.out.below hbel9
  clear hg hn hgl hnl hbel CD CRD CE CRE CLm CLn hy9l
  obtain ⟨km, em⟩ : ∃ b, mayMsgB m = b := ⟨_, rfl⟩
  obtain ⟨ks, es⟩ : ∃ b, msgB m n = b := ⟨_, rfl⟩
  have CM := fun W (hb : Below W9.heap.size W9 W) => msgMay_any m W (hmk.below hb)
  have CRM := fun W (hb : Below W9.heap.size W9 W) => refMayMsg_any m W (hmk.below hb)
  simp only [em] at CM CRM
  have CS := fun W (hb : Below W9.heap.size W9 W) => msgSame_any m n W (hmk.below hb) (hnk.below hb)
  have CRS := fun W (hb : Below W9.heap.size W9 W) => refSameMsg_any m n W (hmk.below hb) (hnk.below hb)
  simp only [es] at CS CRS
  have CP := fun W (hb : Below W9.heap.size W9 W) => msgPlain_any m W (hmk.below hb) (light_smallT HEL.out)
  have CRP := fun W (_ : Below W9.heap.size W9 W) => refPlain_any m W
  have CSP : ∀ W (hb : Below W9.heap.size W9 W) (y : MsgV) (hy : y.ok W) (hyd : y.d = m.plain.d), Calls Try.prog 23 #[.agg y.row, .agg m.plain.row] W fun e w' => e = .returned (.bool true) ∧ Below W.heap.size W w' := fun W hb y hy hyd => by
    have := refSameMsg_any y m.plain W hy (MsgV.plain_ok (hmk.below hb))
    rwa [(msgB_iff _ _).2 hyd] at this
  have CZ := fun W (hb : Below W9.heap.size W9 W) => msgSize_any m W (hmk.below hb)
  rw [HS.out] at CZ
  have CXY : ∀ W (hb : Below W9.heap.size W9 W), Calls Try.prog 23 #[.agg X.row, .agg Y.row] W fun e w' => e = .returned (.bool true) ∧ Below W.heap.size W w' := fun W hb => by
    have := refSameMsg_any X Y W (okX.below hb) (okY.below hb)
    rwa [(msgB_iff _ _).2 (by rw [dX, dY])] at this
  clear em es
  refine wp_region_facts [Fact.eq (.agg m.row), Fact.eq (.bool km), Fact.eq (.agg m.row), Fact.eq (.bool km), Fact.eq (.bool true), Fact.eq (.bool true), Fact.eq (.agg m.row), Fact.eq (.agg n.row), Fact.eq (.bool ks), Fact.eq (.agg m.row), Fact.eq (.agg n.row), Fact.eq (.bool ks), Fact.eq (.bool true), Fact.eq (.bool true), Fact.eq (.bool true), Fact.eq (.agg m.row), Fact.msgT m.plain.d, Fact.eq (.agg m.row), Fact.eq (.agg m.plain.row), Fact.eq (.bool true), Fact.eq (.bool true), Fact.eq (.bool true), Fact.eq (.string S), Fact.eq (.string S), Fact.eq (.bool true), Fact.eq (.bool true), Fact.eq (.bool true), Fact.eq (.int .i64 ft), Fact.eq (.int .i64 ft), Fact.eq (.bool true), Fact.eq (.bool true), Fact.eq (.bool true), Fact.eq (.agg m.row), Fact.eq (.int .i64 (S.size : Nat)), Fact.eq (.string S), Fact.eq (.int .i64 (S.size : Nat)), Fact.eq (.bool true), Fact.eq (.bool true), Fact.eq (.bool true), Fact.eq (.agg X.row), Fact.eq (.agg Y.row), Fact.eq (.bool true), Fact.eq (.bool true), Fact.eq (.bool true), Fact.eq (.int .i64 dt), Fact.eq (.int .i64 dt), Fact.eq (.bool true), Fact.eq (.bool true), Fact.eq (.bool true)] (by kernel_rfl) (by kernel_rfl) (by kernel_rfl) (by kernel_rfl) (fun x => by simp only [fillFrom, Act.put, List.setIfInBounds_toArray, List.set_cons_succ, List.set_cons_zero]; rfl) ?_ ?_
  · refine ⟨?_, ?_, ?_, ?_, ?_, ?_, ?_, ?_, ?_, ?_, ?_, ?_, ?_, ?_, ?_, ?_, ?_, ?_, ?_, ?_, ?_, ?_, ?_, ?_, ?_, ?_, ?_, ?_, ?_, ?_, ?_, ?_, ?_, ?_, ?_, ?_, ?_, ?_, ?_, ?_, ?_, ?_, ?_, ?_, ?_, ?_, ?_, ?_, ?_, trivial⟩
    · intro x w' hbw hd
      clear hd
      have hmr := cells_of hm9 hbw hml9
      go_wp2_with (first | (refine wpList_load_mid rfl 34 (.tmp 3) rfl w.heap.size 0 rfl m.row.toList _ (rangeAt_row5 hmr) Try.underlying34 rfl (msg_info _) ?_; rw [Array.toArray_toList]))
      exact frPost_mk rfl (by repeat (first | assumption | exact Below.refl _ _ | refine bch ?_ (by assumption) | refine Below.alloc ?_ (by simp) _)) rfl
    · intro x w' hbw hd
      have d0 : x 0 = .agg m.row := hd 0 rfl
      clear hd
      have CC := CM w' hbw
      go_wp2_with (first | (go_at_call 17; refine (CC).mono ?_; rintro e wx ⟨rfl, hbx⟩))
      exact frPost_mk rfl (by repeat (first | assumption | exact Below.refl _ _ | refine bch ?_ (by assumption) | refine Below.alloc ?_ (by simp) _)) rfl
    · intro x w' hbw hd
      clear hd
      have hmr := cells_of hm9 hbw hml9
      go_wp2_with (first | (refine wpList_load_mid rfl 34 (.tmp 3) rfl w.heap.size 0 rfl m.row.toList _ (rangeAt_row5 hmr) Try.underlying34 rfl (msg_info _) ?_; rw [Array.toArray_toList]))
      exact frPost_mk rfl (by repeat (first | assumption | exact Below.refl _ _ | refine bch ?_ (by assumption) | refine Below.alloc ?_ (by simp) _)) rfl
    · intro x w' hbw hd
      have d2 : x 2 = .agg m.row := hd 2 rfl
      clear hd
      have CC := CRM w' hbw
      go_wp2_with (first | (go_at_call 22; refine (CC).mono ?_; rintro e wx ⟨rfl, hbx⟩))
      exact frPost_mk rfl (by repeat (first | assumption | exact Below.refl _ _ | refine bch ?_ (by assumption) | refine Below.alloc ?_ (by simp) _)) rfl
    · intro x w' hbw hd
      have d1 : x 1 = .bool km := hd 1 rfl
      have d3 : x 3 = .bool km := hd 3 rfl
      clear hd
      go_wp2_with fail
      exact frPost_mk rfl (by repeat (first | assumption | exact Below.refl _ _ | refine bch ?_ (by assumption) | refine Below.alloc ?_ (by simp) _)) rfl
    · intro x w' hbw hd
      have d4 : x 4 = .bool true := hd 4 rfl
      clear hd
      go_wp2_with fail
      exact frPost_mk rfl (by repeat (first | assumption | exact Below.refl _ _ | refine bch ?_ (by assumption) | refine Below.alloc ?_ (by simp) _)) rfl
    · intro x w' hbw hd
      have d5 : x 5 = .bool true := hd 5 rfl
      clear hd
      have hmr := cells_of hm9 hbw hml9
      go_wp2_with (first | (refine wpList_load_midG 34 (.tmp 3) rfl w.heap.size 0 rfl m.row.toList _ (rangeAt_row5 hmr) Try.underlying34 rfl (msg_info _) (by first | rfl | (simp [Region.wanted, yielded, *]; done)) ?_; rw [Array.toArray_toList]))
      exact frPost_mk rfl (by repeat (first | assumption | exact Below.refl _ _ | refine bch ?_ (by assumption) | refine Below.alloc ?_ (by simp) _)) rfl
    · intro x w' hbw hd
      have d5 : x 5 = .bool true := hd 5 rfl
      clear hd
      have hnr := cells_of hn9 hbw hnl9
      go_wp2_with (first | (refine wpList_load_midG 34 (.tmp 4) rfl (w.heap.size + 1) 0 rfl n.row.toList _ (rangeAt_row5 hnr) Try.underlying34 rfl (msg_info _) (by first | rfl | (simp [Region.wanted, yielded, *]; done)) ?_; rw [Array.toArray_toList]))
      exact frPost_mk rfl (by repeat (first | assumption | exact Below.refl _ _ | refine bch ?_ (by assumption) | refine Below.alloc ?_ (by simp) _)) rfl
    · intro x w' hbw hd
      have d5 : x 5 = .bool true := hd 5 rfl
      have d6 : x 6 = .agg m.row := hd 6 rfl
      have d7 : x 7 = .agg n.row := hd 7 rfl
      clear hd
      have CC := CS w' hbw
      go_wp2_with (first | (go_at_call 19; refine (CC).mono ?_; rintro e wx ⟨rfl, hbx⟩))
      exact frPost_mk rfl (by repeat (first | assumption | exact Below.refl _ _ | refine bch ?_ (by assumption) | refine Below.alloc ?_ (by simp) _)) rfl
    · intro x w' hbw hd
      have d5 : x 5 = .bool true := hd 5 rfl
      clear hd
      have hmr := cells_of hm9 hbw hml9
      go_wp2_with (first | (refine wpList_load_midG 34 (.tmp 3) rfl w.heap.size 0 rfl m.row.toList _ (rangeAt_row5 hmr) Try.underlying34 rfl (msg_info _) (by first | rfl | (simp [Region.wanted, yielded, *]; done)) ?_; rw [Array.toArray_toList]))
      exact frPost_mk rfl (by repeat (first | assumption | exact Below.refl _ _ | refine bch ?_ (by assumption) | refine Below.alloc ?_ (by simp) _)) rfl
    · intro x w' hbw hd
      have d5 : x 5 = .bool true := hd 5 rfl
      clear hd
      have hnr := cells_of hn9 hbw hnl9
      go_wp2_with (first | (refine wpList_load_midG 34 (.tmp 4) rfl (w.heap.size + 1) 0 rfl n.row.toList _ (rangeAt_row5 hnr) Try.underlying34 rfl (msg_info _) (by first | rfl | (simp [Region.wanted, yielded, *]; done)) ?_; rw [Array.toArray_toList]))
      exact frPost_mk rfl (by repeat (first | assumption | exact Below.refl _ _ | refine bch ?_ (by assumption) | refine Below.alloc ?_ (by simp) _)) rfl
    · intro x w' hbw hd
      have d5 : x 5 = .bool true := hd 5 rfl
      have d9 : x 9 = .agg m.row := hd 9 rfl
      have d10 : x 10 = .agg n.row := hd 10 rfl
      clear hd
      have CC := CRS w' hbw
      go_wp2_with (first | (go_at_call 23; refine (CC).mono ?_; rintro e wx ⟨rfl, hbx⟩))
      exact frPost_mk rfl (by repeat (first | assumption | exact Below.refl _ _ | refine bch ?_ (by assumption) | refine Below.alloc ?_ (by simp) _)) rfl
    · intro x w' hbw hd
      have d5 : x 5 = .bool true := hd 5 rfl
      have d8 : x 8 = .bool ks := hd 8 rfl
      have d11 : x 11 = .bool ks := hd 11 rfl
      clear hd
      go_wp2_with fail
      exact frPost_mk rfl (by repeat (first | assumption | exact Below.refl _ _ | refine bch ?_ (by assumption) | refine Below.alloc ?_ (by simp) _)) rfl
    · intro x w' hbw hd
      have d5 : x 5 = .bool true := hd 5 rfl
      have d12 : x 12 = .bool true := hd 12 rfl
      clear hd
      go_wp2_with fail
      exact frPost_mk rfl (by repeat (first | assumption | exact Below.refl _ _ | refine bch ?_ (by assumption) | refine Below.alloc ?_ (by simp) _)) rfl
    · intro x w' hbw hd
      have d13 : x 13 = .bool true := hd 13 rfl
      clear hd
      go_wp2_with fail
      exact frPost_mk rfl (by repeat (first | assumption | exact Below.refl _ _ | refine bch ?_ (by assumption) | refine Below.alloc ?_ (by simp) _)) rfl
    · intro x w' hbw hd
      have d14 : x 14 = .bool true := hd 14 rfl
      clear hd
      have hmr := cells_of hm9 hbw hml9
      go_wp2_with (first | (refine wpList_load_midG 34 (.tmp 3) rfl w.heap.size 0 rfl m.row.toList _ (rangeAt_row5 hmr) Try.underlying34 rfl (msg_info _) (by first | rfl | (simp [Region.wanted, yielded, *]; done)) ?_; rw [Array.toArray_toList]))
      exact frPost_mk rfl (by repeat (first | assumption | exact Below.refl _ _ | refine bch ?_ (by assumption) | refine Below.alloc ?_ (by simp) _)) rfl
    · intro x w' hbw hd
      have d14 : x 14 = .bool true := hd 14 rfl
      have d15 : x 15 = .agg m.row := hd 15 rfl
      clear hd
      have CC := CP w' hbw
      go_wp2_with (first | (go_at_call 24; refine (CC).mono ?_; rintro e wx ⟨y, rfl, hyo, hyd, hbx⟩))
      exact frPost_mk rfl (by repeat (first | assumption | exact Below.refl _ _ | refine bch ?_ (by assumption) | refine Below.alloc ?_ (by simp) _)) ⟨y, rfl, hyo, hyd⟩
    · intro x w' hbw hd
      have d14 : x 14 = .bool true := hd 14 rfl
      clear hd
      have hmr := cells_of hm9 hbw hml9
      go_wp2_with (first | (refine wpList_load_midG 34 (.tmp 3) rfl w.heap.size 0 rfl m.row.toList _ (rangeAt_row5 hmr) Try.underlying34 rfl (msg_info _) (by first | rfl | (simp [Region.wanted, yielded, *]; done)) ?_; rw [Array.toArray_toList]))
      exact frPost_mk rfl (by repeat (first | assumption | exact Below.refl _ _ | refine bch ?_ (by assumption) | refine Below.alloc ?_ (by simp) _)) rfl
    · intro x w' hbw hd
      have d14 : x 14 = .bool true := hd 14 rfl
      have d17 : x 17 = .agg m.row := hd 17 rfl
      clear hd
      have CC := CRP w' hbw
      go_wp2_with (first | (go_at_call 25; refine (CC).mono ?_; rintro e wx ⟨rfl, hbx⟩))
      exact frPost_mk rfl (by repeat (first | assumption | exact Below.refl _ _ | refine bch ?_ (by assumption) | refine Below.alloc ?_ (by simp) _)) rfl
    · intro x w' hbw hd
      have d14 : x 14 = .bool true := hd 14 rfl
      obtain ⟨y16, d16, hy16, hyd16⟩ := (show (Fact.msgT m.plain.d).holds (x 16) w' from hd 16 rfl)
      have d18 : x 18 = .agg m.plain.row := hd 18 rfl
      clear hd
      have CC := CSP w' hbw y16 hy16 hyd16
      go_wp2_with (first | (go_at_call 23; refine (CC).mono ?_; rintro e wx ⟨rfl, hbx⟩))
      exact frPost_mk rfl (by repeat (first | assumption | exact Below.refl _ _ | refine bch ?_ (by assumption) | refine Below.alloc ?_ (by simp) _)) rfl
    · intro x w' hbw hd
      have d14 : x 14 = .bool true := hd 14 rfl
      have d19 : x 19 = .bool true := hd 19 rfl
      clear hd
      go_wp2_with fail
      exact frPost_mk rfl (by repeat (first | assumption | exact Below.refl _ _ | refine bch ?_ (by assumption) | refine Below.alloc ?_ (by simp) _)) rfl
    · intro x w' hbw hd
      have d20 : x 20 = .bool true := hd 20 rfl
      clear hd
      go_wp2_with fail
      exact frPost_mk rfl (by repeat (first | assumption | exact Below.refl _ _ | refine bch ?_ (by assumption) | refine Below.alloc ?_ (by simp) _)) rfl
    · intro x w' hbw hd
      have d21 : x 21 = .bool true := hd 21 rfl
      clear hd
      go_wp2_with fail
      exact frPost_mk rfl (by repeat (first | assumption | exact Below.refl _ _ | refine bch ?_ (by assumption) | refine Below.alloc ?_ (by simp) _)) rfl
    · intro x w' hbw hd
      have d21 : x 21 = .bool true := hd 21 rfl
      clear hd
      go_wp2_with fail
      exact frPost_mk rfl (by repeat (first | assumption | exact Below.refl _ _ | refine bch ?_ (by assumption) | refine Below.alloc ?_ (by simp) _)) rfl
    · intro x w' hbw hd
      have d21 : x 21 = .bool true := hd 21 rfl
      have d22 : x 22 = .string S := hd 22 rfl
      have d23 : x 23 = .string S := hd 23 rfl
      clear hd
      go_wp2_with fail
      exact frPost_mk rfl (by repeat (first | assumption | exact Below.refl _ _ | refine bch ?_ (by assumption) | refine Below.alloc ?_ (by simp) _)) rfl
    · intro x w' hbw hd
      have d21 : x 21 = .bool true := hd 21 rfl
      have d24 : x 24 = .bool true := hd 24 rfl
      clear hd
      go_wp2_with fail
      exact frPost_mk rfl (by repeat (first | assumption | exact Below.refl _ _ | refine bch ?_ (by assumption) | refine Below.alloc ?_ (by simp) _)) rfl
    · intro x w' hbw hd
      have d25 : x 25 = .bool true := hd 25 rfl
      clear hd
      go_wp2_with fail
      exact frPost_mk rfl (by repeat (first | assumption | exact Below.refl _ _ | refine bch ?_ (by assumption) | refine Below.alloc ?_ (by simp) _)) rfl
    · intro x w' hbw hd
      have d26 : x 26 = .bool true := hd 26 rfl
      clear hd
      go_wp2_with fail
      exact frPost_mk rfl (by repeat (first | assumption | exact Below.refl _ _ | refine bch ?_ (by assumption) | refine Below.alloc ?_ (by simp) _)) rfl
    · intro x w' hbw hd
      have d26 : x 26 = .bool true := hd 26 rfl
      clear hd
      go_wp2_with fail
      exact frPost_mk rfl (by repeat (first | assumption | exact Below.refl _ _ | refine bch ?_ (by assumption) | refine Below.alloc ?_ (by simp) _)) rfl
    · intro x w' hbw hd
      have d26 : x 26 = .bool true := hd 26 rfl
      have d27 : x 27 = .int .i64 ft := hd 27 rfl
      have d28 : x 28 = .int .i64 ft := hd 28 rfl
      clear hd
      go_wp2_with fail
      exact frPost_mk rfl (by repeat (first | assumption | exact Below.refl _ _ | refine bch ?_ (by assumption) | refine Below.alloc ?_ (by simp) _)) rfl
    · intro x w' hbw hd
      have d26 : x 26 = .bool true := hd 26 rfl
      have d29 : x 29 = .bool true := hd 29 rfl
      clear hd
      go_wp2_with fail
      exact frPost_mk rfl (by repeat (first | assumption | exact Below.refl _ _ | refine bch ?_ (by assumption) | refine Below.alloc ?_ (by simp) _)) rfl
    · intro x w' hbw hd
      have d30 : x 30 = .bool true := hd 30 rfl
      clear hd
      go_wp2_with fail
      exact frPost_mk rfl (by repeat (first | assumption | exact Below.refl _ _ | refine bch ?_ (by assumption) | refine Below.alloc ?_ (by simp) _)) rfl
    · intro x w' hbw hd
      have d31 : x 31 = .bool true := hd 31 rfl
      clear hd
      have hmr := cells_of hm9 hbw hml9
      go_wp2_with (first | (refine wpList_load_midG 34 (.tmp 3) rfl w.heap.size 0 rfl m.row.toList _ (rangeAt_row5 hmr) Try.underlying34 rfl (msg_info _) (by first | rfl | (simp [Region.wanted, yielded, *]; done)) ?_; rw [Array.toArray_toList]))
      exact frPost_mk rfl (by repeat (first | assumption | exact Below.refl _ _ | refine bch ?_ (by assumption) | refine Below.alloc ?_ (by simp) _)) rfl
    · intro x w' hbw hd
      have d31 : x 31 = .bool true := hd 31 rfl
      have d32 : x 32 = .agg m.row := hd 32 rfl
      clear hd
      have CC := CZ w' hbw
      go_wp2_with (first | (go_at_call 26; refine (CC).mono ?_; rintro e wx ⟨rfl, hbx⟩))
      exact frPost_mk rfl (by repeat (first | assumption | exact Below.refl _ _ | refine bch ?_ (by assumption) | refine Below.alloc ?_ (by simp) _)) rfl
    · intro x w' hbw hd
      have d31 : x 31 = .bool true := hd 31 rfl
      clear hd
      go_wp2_with fail
      exact frPost_mk rfl (by repeat (first | assumption | exact Below.refl _ _ | refine bch ?_ (by assumption) | refine Below.alloc ?_ (by simp) _)) rfl
    · intro x w' hbw hd
      have d31 : x 31 = .bool true := hd 31 rfl
      have d34 : x 34 = .string S := hd 34 rfl
      clear hd
      go_wp2_with fail
      exact frPost_mk rfl (by repeat (first | assumption | exact Below.refl _ _ | refine bch ?_ (by assumption) | refine Below.alloc ?_ (by simp) _)) rfl
    · intro x w' hbw hd
      have d31 : x 31 = .bool true := hd 31 rfl
      have d33 : x 33 = .int .i64 (S.size : Nat) := hd 33 rfl
      have d35 : x 35 = .int .i64 (S.size : Nat) := hd 35 rfl
      clear hd
      go_wp2_with fail
      exact frPost_mk rfl (by repeat (first | assumption | exact Below.refl _ _ | refine bch ?_ (by assumption) | refine Below.alloc ?_ (by simp) _)) rfl
    · intro x w' hbw hd
      have d31 : x 31 = .bool true := hd 31 rfl
      have d36 : x 36 = .bool true := hd 36 rfl
      clear hd
      go_wp2_with fail
      exact frPost_mk rfl (by repeat (first | assumption | exact Below.refl _ _ | refine bch ?_ (by assumption) | refine Below.alloc ?_ (by simp) _)) rfl
    · intro x w' hbw hd
      have d37 : x 37 = .bool true := hd 37 rfl
      clear hd
      go_wp2_with fail
      exact frPost_mk rfl (by repeat (first | assumption | exact Below.refl _ _ | refine bch ?_ (by assumption) | refine Below.alloc ?_ (by simp) _)) rfl
    · intro x w' hbw hd
      have d38 : x 38 = .bool true := hd 38 rfl
      clear hd
      have hxr := cells_of hx9 hbw hxl9
      go_wp2_with (first | (refine wpList_load_midG 34 (.tmp 11) rfl gx 0 rfl X.row.toList _ (rangeAt_row5 hxr) Try.underlying34 rfl (msg_info _) (by first | rfl | (simp [Region.wanted, yielded, *]; done)) ?_; rw [Array.toArray_toList]))
      exact frPost_mk rfl (by repeat (first | assumption | exact Below.refl _ _ | refine bch ?_ (by assumption) | refine Below.alloc ?_ (by simp) _)) rfl
    · intro x w' hbw hd
      have d38 : x 38 = .bool true := hd 38 rfl
      clear hd
      have hyr := cells_of hy9 hbw hyl9
      go_wp2_with (first | (refine wpList_load_midG 34 (.tmp 13) rfl gy 0 rfl Y.row.toList _ (rangeAt_row5 hyr) Try.underlying34 rfl (msg_info _) (by first | rfl | (simp [Region.wanted, yielded, *]; done)) ?_; rw [Array.toArray_toList]))
      exact frPost_mk rfl (by repeat (first | assumption | exact Below.refl _ _ | refine bch ?_ (by assumption) | refine Below.alloc ?_ (by simp) _)) rfl
    · intro x w' hbw hd
      have d38 : x 38 = .bool true := hd 38 rfl
      have d39 : x 39 = .agg X.row := hd 39 rfl
      have d40 : x 40 = .agg Y.row := hd 40 rfl
      clear hd
      have CC := CXY w' hbw
      go_wp2_with (first | (go_at_call 23; refine (CC).mono ?_; rintro e wx ⟨rfl, hbx⟩))
      exact frPost_mk rfl (by repeat (first | assumption | exact Below.refl _ _ | refine bch ?_ (by assumption) | refine Below.alloc ?_ (by simp) _)) rfl
    · intro x w' hbw hd
      have d38 : x 38 = .bool true := hd 38 rfl
      have d41 : x 41 = .bool true := hd 41 rfl
      clear hd
      go_wp2_with fail
      exact frPost_mk rfl (by repeat (first | assumption | exact Below.refl _ _ | refine bch ?_ (by assumption) | refine Below.alloc ?_ (by simp) _)) rfl
    · intro x w' hbw hd
      have d42 : x 42 = .bool true := hd 42 rfl
      clear hd
      go_wp2_with fail
      exact frPost_mk rfl (by repeat (first | assumption | exact Below.refl _ _ | refine bch ?_ (by assumption) | refine Below.alloc ?_ (by simp) _)) rfl
    · intro x w' hbw hd
      have d43 : x 43 = .bool true := hd 43 rfl
      clear hd
      go_wp2_with fail
      exact frPost_mk rfl (by repeat (first | assumption | exact Below.refl _ _ | refine bch ?_ (by assumption) | refine Below.alloc ?_ (by simp) _)) rfl
    · intro x w' hbw hd
      have d43 : x 43 = .bool true := hd 43 rfl
      clear hd
      go_wp2_with fail
      exact frPost_mk rfl (by repeat (first | assumption | exact Below.refl _ _ | refine bch ?_ (by assumption) | refine Below.alloc ?_ (by simp) _)) rfl
    · intro x w' hbw hd
      have d43 : x 43 = .bool true := hd 43 rfl
      have d44 : x 44 = .int .i64 dt := hd 44 rfl
      have d45 : x 45 = .int .i64 dt := hd 45 rfl
      clear hd
      go_wp2_with fail
      exact frPost_mk rfl (by repeat (first | assumption | exact Below.refl _ _ | refine bch ?_ (by assumption) | refine Below.alloc ?_ (by simp) _)) rfl
    · intro x w' hbw hd
      have d43 : x 43 = .bool true := hd 43 rfl
      have d46 : x 46 = .bool true := hd 46 rfl
      clear hd
      go_wp2_with fail
      exact frPost_mk rfl (by repeat (first | assumption | exact Below.refl _ _ | refine bch ?_ (by assumption) | refine Below.alloc ?_ (by simp) _)) rfl
    · intro x w' hbw hd
      have d47 : x 47 = .bool true := hd 47 rfl
      clear hd
      go_wp2_with fail
      exact frPost_mk rfl (by repeat (first | assumption | exact Below.refl _ _ | refine bch ?_ (by assumption) | refine Below.alloc ?_ (by simp) _)) rfl
  intro x wf hbw hd
  have d48 : x 48 = .bool true := hd 48 (by decide)
  clear hd
  simp only [Nat.zero_add, Nat.reduceAdd, d48]
  go_wp2_with fail
  go_ret
  exact ⟨by first | rfl | simp, hbel9.trans (hbw.mono hbel9.size)⟩
end Go.Proofs.Ythipnkbfdkmhaaa
