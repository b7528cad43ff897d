/- Messages written. -/
import Derived.Test.YthipnkbfdkmhaaaMsg4
import Derived.Test.YthipnkbfdkmhaaaPf3
import Derived.Test.YthipnkbfdkmhaaaEvW
import Derived.Test.YthipnkbfdkmhaaaWriterH
import Derived.WalkKit
import Derived.ProofKit
import Derived.Handy
import Derived.Below
import Derived.Lib.Hide
import Derived.IntWalk
import Derived.Outline
import Derived.WalkLawsBesides
import Derived.WalkSpells
namespace Go.Proofs.Ythipnkbfdkmhaaa
open Go.RowKit
attribute [local go_sem] strV
set_option linter.unusedVariables false

theorem mayK_boundsM {sp : ByteArray} {sc : Int} {dp : ByteArray} {dc sq : Int} {da : ByteArray} {th ta : Int} (h : mayK sp sc dp dc sq da th ta = true) :
    sp.size ≤ 12 ∧ dp.size ≤ 12 ∧ da.size ≤ 200 ∧ 0 ≤ sc ∧ sc ≤ 999 ∧ 0 ≤ dc ∧ dc ≤ 999 ∧ 1 ≤ sq ∧ sq ≤ 1099511627776 ∧ 0 ≤ th ∧ th ≤ 1099511627776 ∧ 0 ≤ ta ∧ ta ≤ 1099511627776 := by
  unfold mayK at h
  simp only [Bool.and_eq_true, decide_eq_true_eq] at h
  obtain ⟨⟨⟨⟨⟨⟨⟨⟨h1, h2⟩, h3⟩, h4⟩, h5⟩, h6⟩, h7⟩, h8⟩, h9⟩ := h
  have a := mayE_bounds h1
  have b := mayE_bounds h2
  omega
theorem wnumI_k (B b : Nat) (w : World) (l : List UInt8) (v : Int) (h : WAt B b w l 0) (hBw : B ≤ w.heap.size) (h0 : 0 ≤ v) (h1 : v ≤ 72057594037927935) (hlen : l.length ≤ 1000000) :
    Calls Try.prog 76 #[.pointer (some ⟨b, 0, none⟩), .int .i64 v] w fun e w' => e = .returned (.tuple #[]) ∧ WAt B b w' (l ++ putL v) 0 ∧ Below B w w' ∧ KW b w w' := by
  obtain ⟨x, rfl⟩ : ∃ x : Nat, v = x := ⟨v.toNat, by omega⟩
  exact wnum_k B b w l x h hBw (by omega) hlen
theorem pkWriteI (B b : Nat) (w : World) (l : List UInt8) (m : MsgV) (hW : WAt B b w l 0) (hBw : B ≤ w.heap.size) (hK : mayK m.sp m.sc m.dp m.dc m.sq m.da m.th m.ta = true) (hl : l.length ≤ 700000) :
    Calls Try.prog 93 #[.pointer (some ⟨b, 0, none⟩), .agg #[.string m.sp, .int .i64 m.sc, .string m.dp, .int .i64 m.dc, .int .i64 m.sq, .string m.da, .int .i64 m.th, .int .i64 m.ta]] w fun e w' => e = .returned (.tuple #[]) ∧ WAt B b w' (l ++ pkBy m.sp m.sc m.dp m.dc m.sq m.da m.th m.ta) 0 ∧ Below B w w' ∧ KW b w w' := by
  obtain ⟨y1, y2, y3, y4, y5, y6, y7, y8, y9, y10, y11, y12, y13⟩ := mayK_boundsM hK
  have := pkWrite_any B b w l m.sp m.sc.toNat m.dp m.dc.toNat m.sq.toNat m.da m.th.toNat m.ta.toNat hW hBw y1 y2 y3 (by omega) (by omega) (by omega) (by omega) (by omega) hl
  rw [Int.toNat_of_nonneg (by omega), Int.toNat_of_nonneg (by omega), Int.toNat_of_nonneg (by omega), Int.toNat_of_nonneg (by omega), Int.toNat_of_nonneg (by omega)] at this
  exact this
theorem pfBy_len {ct : Int} {xs : List LeafV} (h : mayPfB ct xs = true) : (pfBy ct xs).length ≤ 2448 := by
  obtain ⟨m1, m2, m3, m4⟩ := mayPfB_parts h
  have hlb : ∀ x ∈ xs, (leafBy x).length ≤ 1216 := fun x hx => leafBy_len (m4 x hx).1 (m4 x hx).2.1 (m4 x hx).2.2.2.2
  have hf := flat_leB hlb xs.length
  rw [List.take_length] at hf
  have a1 := putL_len' ct; have a2 := putL_len' (xs.length : Int)
  unfold pfBy
  simp only [List.length_append]
  omega
def msgBy (m : MsgV) : List UInt8 :=
  if m.kd = 1 then putL 1 ++ (putL m.hh ++ (putL m.ht ++ m.rt.1))
  else if m.kd = 2 then putL 2 ++ (pkBy m.sp m.sc m.dp m.dc m.sq m.da m.th m.ta ++ (putL m.he ++ pfBy m.pct m.pxs))
  else if m.kd = 3 then putL 3 ++ (pkBy m.sp m.sc m.dp m.dc m.sq m.da m.th m.ta ++ (putL (m.ack.size : Int) ++ (m.ack.data.toList ++ (putL m.he ++ pfBy m.pct m.pxs))))
  else if m.kd = 4 then putL 4 ++ (pkBy m.sp m.sc m.dp m.dc m.sq m.da m.th m.ta ++ (putL m.nx ++ (putL m.he ++ pfBy m.pct m.pxs)))
  else putL 5 ++ (pkBy m.sp m.sc m.dp m.dc m.sq m.da m.th m.ta ++ (putL m.nx ++ (putL m.he ++ (pfBy m.pct m.pxs ++ pfBy m.cct m.cxs))))
theorem may_kd {m : MsgV} (h : mayMsgB m = true) : 1 ≤ m.kd ∧ m.kd ≤ 5 ∧ restB m = true := by
  unfold mayMsgB at h
  simp only [Bool.and_eq_true, Bool.not_eq_true', decide_eq_false_iff_not] at h
  obtain ⟨⟨⟨h1, h2⟩, _⟩, h3⟩ := h
  exact ⟨by omega, by omega, h3⟩
theorem rest_1 {m : MsgV} (k : m.kd = 1) (h : restB m = true) : 1 ≤ m.hh ∧ m.hh ≤ 1099511627776 ∧ 0 ≤ m.ht ∧ m.ht ≤ 1099511627776 := by
  unfold restB heightB at h
  rw [if_pos k] at h
  simp only [Bool.and_eq_true, decide_eq_true_eq] at h
  omega
theorem rest_2 {m : MsgV} (k : m.kd ≠ 1) (h : restB m = true) : (m.kd = 3 → m.ack.size ≤ 32) ∧ mayK m.sp m.sc m.dp m.dc m.sq m.da m.th m.ta = true ∧ 1 ≤ m.he ∧ m.he ≤ 1099511627776 ∧ 0 ≤ m.nx ∧ m.nx ≤ 1099511627777 ∧ mayPfB m.pct m.pxs = true ∧ mayPfB m.cct m.cxs = true := by
  unfold restB heightB at h
  rw [if_neg k] at h
  simp only [Bool.and_eq_true, decide_eq_true_eq] at h
  obtain ⟨⟨⟨⟨⟨⟨h1, h2⟩, h3⟩, h4⟩, h5⟩, h6⟩, h7⟩ := h
  refine ⟨fun e => ?_, h2, h3.1, h3.2, h4, h5, h6, h7⟩
  rw [e] at h1
  simp at h1
  omega
theorem msg_root {w : World} {g : Nat} {m : MsgV} {e : TypeId} (h : w.heap[g]? = some (.cells m.row e (0, 0))) : w.rangeAt g 3 m.rt.cells := fun j v hv => by
  have h9 := msg_header h (2 + j) v (by unfold hdL; rw [List.getElem?_append_right (by simp)]; simpa using hv)
  rwa [show 1 + (2 + j) = 3 + j by omega] at h9
set_option maxRecDepth 100000 in
set_option maxHeartbeats 4000000 in
theorem msgWrite_1 (b : Nat) (w0 w : World) (m : MsgV) (hk : m.kd = 1) (hm : m.ok w0) (hw0 : Below w0.heap.size w0 w) (hW : WAt w0.heap.size b w [] 0) (hR : restB m = true) :
    Calls Try.prog 49 #[.pointer (some ⟨b, 0, none⟩), .agg m.row] w fun e w' => e = .returned (.tuple #[]) ∧ WAt w0.heap.size b w' (msgBy m) 0 ∧ Below w0.heap.size w w' ∧ KW b w w' := by
  have HF : Hid (msgBy m = putL 1 ++ (putL m.hh ++ (putL m.ht ++ m.rt.1))) := Lib.hid (by unfold msgBy; rw [if_pos hk])
  obtain ⟨y1, y2, y3, y4⟩ := rest_1 hk hR
  have z9 := putL_len' 1
  have z8 := putL_len' m.hh
  have z7 := putL_len' m.ht
  have hBw := hw0.size
  have hgb : w.heap.size ≠ b := by have := hW.lt; omega
  go_enter Try.func49, Try.ntmps49
  go_upto_region 1 with fail
  refine wp_nameE _ (fun W1 hX => ?_)
  have hg : W1.heap[w.heap.size]? = some (.cells m.row 34 (0, 0)) := by rw [hX]; exact heap_push _ _ _
  have hb1 : Below w.heap.size w W1 := by rw [hX]; exact Below.alloc (Below.refl _ _) (Nat.le_refl _) _
  clear hX
  have hkw : KW b w W1 := KW.of hb1
  have hbel : Below w0.heap.size w W1 := hb1.mono hBw
  have hW := hW.below hb1
  have hBw := Nat.le_trans hBw hb1.size
  clear hb1
  obtain ⟨q0, q1, q2, q3, q4, q5, q6, q7, q8, q9, q10, q11, q12, q13, q14, q15, q16, q17⟩ := msg_cells hg
  rw [hk] at q0
  go_upto_region 2 with (go_at_call 76; refine (wnumI_k w0.heap.size b _ _ 1 hW hBw (by omega) (by omega) (by (first | omega | exact Nat.zero_le _ | (simp only [List.length_append]; omega) | (simp only [List.nil_append]; omega) | (simp only [List.nil_append, List.length_append]; omega) | (simp only [List.length_append, str_len]; omega) | (simp only [List.length_append, List.nil_append, str_len]; omega)))).mono ?_; rintro e w2 ⟨rfl, hW, hb2, hk2⟩; have hg := hk2.row2 hg hgb (by decide); have hBw := Nat.le_trans hBw hk2.size; have hbel := hbel.trans hb2; have hkw := hkw.trans hk2; clear hb2 hk2 q0 q1 q2 q3 q4 q5 q6 q7 q8 q9 q10 q11 q12 q13 q14 q15 q16 q17; obtain ⟨q0, q1, q2, q3, q4, q5, q6, q7, q8, q9, q10, q11, q12, q13, q14, q15, q16, q17⟩ := msg_cells hg; rw [hk] at q0)
  go_upto_region 4 with (go_at_call 76; refine (wnumI_k w0.heap.size b _ _ m.hh hW hBw (by omega) (by omega) (by (first | omega | exact Nat.zero_le _ | (simp only [List.length_append]; omega) | (simp only [List.nil_append]; omega) | (simp only [List.nil_append, List.length_append]; omega) | (simp only [List.length_append, str_len]; omega) | (simp only [List.length_append, List.nil_append, str_len]; omega)))).mono ?_; rintro e w2 ⟨rfl, hW, hb2, hk2⟩; have hg := hk2.row2 hg hgb (by decide); have hBw := Nat.le_trans hBw hk2.size; have hbel := hbel.trans hb2; have hkw := hkw.trans hk2; clear hb2 hk2 q0 q1 q2 q3 q4 q5 q6 q7 q8 q9 q10 q11 q12 q13 q14 q15 q16 q17; obtain ⟨q0, q1, q2, q3, q4, q5, q6, q7, q8, q9, q10, q11, q12, q13, q14, q15, q16, q17⟩ := msg_cells hg; rw [hk] at q0)
  go_upto_region 5 with (go_at_call 76; refine (wnumI_k w0.heap.size b _ _ m.ht hW hBw (by omega) (by omega) (by (first | omega | exact Nat.zero_le _ | (simp only [List.length_append]; omega) | (simp only [List.nil_append]; omega) | (simp only [List.nil_append, List.length_append]; omega) | (simp only [List.length_append, str_len]; omega) | (simp only [List.length_append, List.nil_append, str_len]; omega)))).mono ?_; rintro e w2 ⟨rfl, hW, hb2, hk2⟩; have hg := hk2.row2 hg hgb (by decide); have hBw := Nat.le_trans hBw hk2.size; have hbel := hbel.trans hb2; have hkw := hkw.trans hk2; clear hb2 hk2 q0 q1 q2 q3 q4 q5 q6 q7 q8 q9 q10 q11 q12 q13 q14 q15 q16 q17; obtain ⟨q0, q1, q2, q3, q4, q5, q6, q7, q8, q9, q10, q11, q12, q13, q14, q15, q16, q17⟩ := msg_cells hg; rw [hk] at q0)
  have hrt := msg_root hg
  go_wp2_with (first | (refine wpList_load_mid rfl 23 (.tmp 23) rfl w.heap.size 3 rfl m.rt.cells _ hrt Try.underlying23 rfl (hash_infoM m.rt) ?_; rw [H32.row]) | (go_at_call 92; refine (whash_k w0.heap.size b _ _ m.rt.1 m.rt.2 hBw hW (by (first | omega | exact Nat.zero_le _ | (simp only [List.length_append]; omega) | (simp only [List.nil_append]; omega) | (simp only [List.nil_append, List.length_append]; omega) | (simp only [List.length_append, str_len]; omega) | (simp only [List.length_append, List.nil_append, str_len]; omega)))).mono ?_; rintro e w9 ⟨rfl, hW, hb2, hk2⟩; have hBw := Nat.le_trans hBw hk2.size; have hbel := hbel.trans hb2; have hkw := hkw.trans hk2))
  go_returns
  refine ⟨rfl, ?_, hbel, hkw⟩
  rw [HF.out]
  have h9 := hW
  simp only [List.append_assoc, List.nil_append] at h9
  exact h9
set_option maxRecDepth 100000 in
set_option maxHeartbeats 4000000 in
theorem msgWrite_2 (b : Nat) (w0 w : World) (m : MsgV) (hk : m.kd = 2) (hm : m.ok w0) (hw0 : Below w0.heap.size w0 w) (hW : WAt w0.heap.size b w [] 0) (hR : restB m = true) :
    Calls Try.prog 49 #[.pointer (some ⟨b, 0, none⟩), .agg m.row] w fun e w' => e = .returned (.tuple #[]) ∧ WAt w0.heap.size b w' (msgBy m) 0 ∧ Below w0.heap.size w w' ∧ KW b w w' := by
  have HF : Hid (msgBy m = putL 2 ++ (pkBy m.sp m.sc m.dp m.dc m.sq m.da m.th m.ta ++ (putL m.he ++ pfBy m.pct m.pxs))) := Lib.hid (by unfold msgBy; rw [if_neg (show ¬ m.kd = 1 by omega), if_pos hk])
  obtain ⟨ya, hK, y1, y2, y3, y4, hP, hC⟩ := rest_2 (by omega) hR
  obtain ⟨z1, z2, z3, _⟩ := mayK_boundsM hK
  have zpk := pkBy_len m.sp m.sc m.dp m.dc m.sq m.da m.th m.ta z1 z2 z3
  have zp := pfBy_len hP
  have zc := pfBy_len hC
  have z5 := putL_len' m.he
  have z6 := putL_len' m.nx
  have z7 := putL_len' (m.ack.size : Int)
  have z9 := putL_len' 2
  have hBw := hw0.size
  have hgb : w.heap.size ≠ b := by have := hW.lt; omega
  go_enter Try.func49, Try.ntmps49
  go_upto_region 1 with fail
  refine wp_nameE _ (fun W1 hX => ?_)
  have hg : W1.heap[w.heap.size]? = some (.cells m.row 34 (0, 0)) := by rw [hX]; exact heap_push _ _ _
  have hb1 : Below w.heap.size w W1 := by rw [hX]; exact Below.alloc (Below.refl _ _) (Nat.le_refl _) _
  clear hX
  have hkw : KW b w W1 := KW.of hb1
  have hbel : Below w0.heap.size w W1 := hb1.mono hBw
  have hW := hW.below hb1
  have hBw := Nat.le_trans hBw hb1.size
  clear hb1
  obtain ⟨q0, q1, q2, q3, q4, q5, q6, q7, q8, q9, q10, q11, q12, q13, q14, q15, q16, q17⟩ := msg_cells hg
  rw [hk] at q0
  go_upto_region 2 with (go_at_call 76; refine (wnumI_k w0.heap.size b _ _ 2 hW hBw (by omega) (by omega) (by (first | omega | exact Nat.zero_le _ | (simp only [List.length_append]; omega) | (simp only [List.nil_append]; omega) | (simp only [List.nil_append, List.length_append]; omega) | (simp only [List.length_append, str_len]; omega) | (simp only [List.length_append, List.nil_append, str_len]; omega)))).mono ?_; rintro e w2 ⟨rfl, hW, hb2, hk2⟩; have hg := hk2.row2 hg hgb (by decide); have hBw := Nat.le_trans hBw hk2.size; have hbel := hbel.trans hb2; have hkw := hkw.trans hk2; clear hb2 hk2 q0 q1 q2 q3 q4 q5 q6 q7 q8 q9 q10 q11 q12 q13 q14 q15 q16 q17; obtain ⟨q0, q1, q2, q3, q4, q5, q6, q7, q8, q9, q10, q11, q12, q13, q14, q15, q16, q17⟩ := msg_cells hg; rw [hk] at q0)
  go_upto_region 7 with (go_at_call 93; refine (pkWriteI w0.heap.size b _ _ m hW hBw hK (by (first | omega | exact Nat.zero_le _ | (simp only [List.length_append]; omega) | (simp only [List.nil_append]; omega) | (simp only [List.nil_append, List.length_append]; omega) | (simp only [List.length_append, str_len]; omega) | (simp only [List.length_append, List.nil_append, str_len]; omega)))).mono ?_; rintro e w2 ⟨rfl, hW, hb2, hk2⟩; have hg := hk2.row2 hg hgb (by decide); have hBw := Nat.le_trans hBw hk2.size; have hbel := hbel.trans hb2; have hkw := hkw.trans hk2; clear hb2 hk2 q0 q1 q2 q3 q4 q5 q6 q7 q8 q9 q10 q11 q12 q13 q14 q15 q16 q17; obtain ⟨q0, q1, q2, q3, q4, q5, q6, q7, q8, q9, q10, q11, q12, q13, q14, q15, q16, q17⟩ := msg_cells hg; rw [hk] at q0)
  go_upto_region 11 with (first | (go_at_call 53; refine (hasAck_any _ _).mono ?_; rintro e w2 ⟨rfl, hw2⟩; obtain rfl : _ = w2 := hw2; skip) | (go_at_call 94; refine (hasNext_any _ _).mono ?_; rintro e w2 ⟨rfl, hw2⟩; obtain rfl : _ = w2 := hw2; skip) | (go_at_call 96; refine (hasClose_any _ _).mono ?_; rintro e w2 ⟨rfl, hw2⟩; obtain rfl : _ = w2 := hw2; skip))
  go_upto_region 12 with (go_at_call 76; refine (wnumI_k w0.heap.size b _ _ m.he hW hBw (by omega) (by omega) (by (first | omega | exact Nat.zero_le _ | (simp only [List.length_append]; omega) | (simp only [List.nil_append]; omega) | (simp only [List.nil_append, List.length_append]; omega) | (simp only [List.length_append, str_len]; omega) | (simp only [List.length_append, List.nil_append, str_len]; omega)))).mono ?_; rintro e w2 ⟨rfl, hW, hb2, hk2⟩; have hg := hk2.row2 hg hgb (by decide); have hBw := Nat.le_trans hBw hk2.size; have hbel := hbel.trans hb2; have hkw := hkw.trans hk2; clear hb2 hk2 q0 q1 q2 q3 q4 q5 q6 q7 q8 q9 q10 q11 q12 q13 q14 q15 q16 q17; obtain ⟨q0, q1, q2, q3, q4, q5, q6, q7, q8, q9, q10, q11, q12, q13, q14, q15, q16, q17⟩ := msg_cells hg; rw [hk] at q0)
  go_upto_region 13 with (go_at_call 95; refine (pfWrite_any b w0 _ _ m.pct m.pa m.pn m.pc m.pxs hm.p (hw0.trans hbel) hW hm.plen hP (by (first | omega | exact Nat.zero_le _ | (simp only [List.length_append]; omega) | (simp only [List.nil_append]; omega) | (simp only [List.nil_append, List.length_append]; omega) | (simp only [List.length_append, str_len]; omega) | (simp only [List.length_append, List.nil_append, str_len]; omega)))).mono ?_; rintro e w2 ⟨rfl, hW, hb2, hk2⟩; have hg := hk2.row2 hg hgb (by decide); have hBw := Nat.le_trans hBw hk2.size; have hbel := hbel.trans hb2; have hkw := hkw.trans hk2; clear hb2 hk2 q0 q1 q2 q3 q4 q5 q6 q7 q8 q9 q10 q11 q12 q13 q14 q15 q16 q17; obtain ⟨q0, q1, q2, q3, q4, q5, q6, q7, q8, q9, q10, q11, q12, q13, q14, q15, q16, q17⟩ := msg_cells hg; rw [hk] at q0)
  go_wp2_with (first | (go_at_call 53; refine (hasAck_any _ _).mono ?_; rintro e w2 ⟨rfl, hw2⟩; obtain rfl : _ = w2 := hw2; skip) | (go_at_call 94; refine (hasNext_any _ _).mono ?_; rintro e w2 ⟨rfl, hw2⟩; obtain rfl : _ = w2 := hw2; skip) | (go_at_call 96; refine (hasClose_any _ _).mono ?_; rintro e w2 ⟨rfl, hw2⟩; obtain rfl : _ = w2 := hw2; skip))
  go_returns
  refine ⟨rfl, ?_, hbel, hkw⟩
  rw [HF.out]
  have h9 := hW
  simp only [List.append_assoc, List.nil_append] at h9
  exact h9
set_option maxRecDepth 100000 in
set_option maxHeartbeats 4000000 in
theorem msgWrite_3 (b : Nat) (w0 w : World) (m : MsgV) (hk : m.kd = 3) (hm : m.ok w0) (hw0 : Below w0.heap.size w0 w) (hW : WAt w0.heap.size b w [] 0) (hR : restB m = true) :
    Calls Try.prog 49 #[.pointer (some ⟨b, 0, none⟩), .agg m.row] w fun e w' => e = .returned (.tuple #[]) ∧ WAt w0.heap.size b w' (msgBy m) 0 ∧ Below w0.heap.size w w' ∧ KW b w w' := by
  have HF : Hid (msgBy m = putL 3 ++ (pkBy m.sp m.sc m.dp m.dc m.sq m.da m.th m.ta ++ (putL (m.ack.size : Int) ++ (m.ack.data.toList ++ (putL m.he ++ pfBy m.pct m.pxs))))) := Lib.hid (by unfold msgBy; rw [if_neg (show ¬ m.kd = 1 by omega), if_neg (show ¬ m.kd = 2 by omega), if_pos hk])
  obtain ⟨ya, hK, y1, y2, y3, y4, hP, hC⟩ := rest_2 (by omega) hR
  obtain ⟨z1, z2, z3, _⟩ := mayK_boundsM hK
  have zpk := pkBy_len m.sp m.sc m.dp m.dc m.sq m.da m.th m.ta z1 z2 z3
  have zp := pfBy_len hP
  have zc := pfBy_len hC
  have z5 := putL_len' m.he
  have z6 := putL_len' m.nx
  have z7 := putL_len' (m.ack.size : Int)
  have ya := ya hk
  have z9 := putL_len' 3
  have hBw := hw0.size
  have hgb : w.heap.size ≠ b := by have := hW.lt; omega
  go_enter Try.func49, Try.ntmps49
  go_upto_region 1 with fail
  refine wp_nameE _ (fun W1 hX => ?_)
  have hg : W1.heap[w.heap.size]? = some (.cells m.row 34 (0, 0)) := by rw [hX]; exact heap_push _ _ _
  have hb1 : Below w.heap.size w W1 := by rw [hX]; exact Below.alloc (Below.refl _ _) (Nat.le_refl _) _
  clear hX
  have hkw : KW b w W1 := KW.of hb1
  have hbel : Below w0.heap.size w W1 := hb1.mono hBw
  have hW := hW.below hb1
  have hBw := Nat.le_trans hBw hb1.size
  clear hb1
  obtain ⟨q0, q1, q2, q3, q4, q5, q6, q7, q8, q9, q10, q11, q12, q13, q14, q15, q16, q17⟩ := msg_cells hg
  rw [hk] at q0
  go_upto_region 2 with (go_at_call 76; refine (wnumI_k w0.heap.size b _ _ 3 hW hBw (by omega) (by omega) (by (first | omega | exact Nat.zero_le _ | (simp only [List.length_append]; omega) | (simp only [List.nil_append]; omega) | (simp only [List.nil_append, List.length_append]; omega) | (simp only [List.length_append, str_len]; omega) | (simp only [List.length_append, List.nil_append, str_len]; omega)))).mono ?_; rintro e w2 ⟨rfl, hW, hb2, hk2⟩; have hg := hk2.row2 hg hgb (by decide); have hBw := Nat.le_trans hBw hk2.size; have hbel := hbel.trans hb2; have hkw := hkw.trans hk2; clear hb2 hk2 q0 q1 q2 q3 q4 q5 q6 q7 q8 q9 q10 q11 q12 q13 q14 q15 q16 q17; obtain ⟨q0, q1, q2, q3, q4, q5, q6, q7, q8, q9, q10, q11, q12, q13, q14, q15, q16, q17⟩ := msg_cells hg; rw [hk] at q0)
  go_upto_region 7 with (go_at_call 93; refine (pkWriteI w0.heap.size b _ _ m hW hBw hK (by (first | omega | exact Nat.zero_le _ | (simp only [List.length_append]; omega) | (simp only [List.nil_append]; omega) | (simp only [List.nil_append, List.length_append]; omega) | (simp only [List.length_append, str_len]; omega) | (simp only [List.length_append, List.nil_append, str_len]; omega)))).mono ?_; rintro e w2 ⟨rfl, hW, hb2, hk2⟩; have hg := hk2.row2 hg hgb (by decide); have hBw := Nat.le_trans hBw hk2.size; have hbel := hbel.trans hb2; have hkw := hkw.trans hk2; clear hb2 hk2 q0 q1 q2 q3 q4 q5 q6 q7 q8 q9 q10 q11 q12 q13 q14 q15 q16 q17; obtain ⟨q0, q1, q2, q3, q4, q5, q6, q7, q8, q9, q10, q11, q12, q13, q14, q15, q16, q17⟩ := msg_cells hg; rw [hk] at q0)
  go_upto_region 8 with (first | (go_at_call 53; refine (hasAck_any _ _).mono ?_; rintro e w2 ⟨rfl, hw2⟩; obtain rfl : _ = w2 := hw2; skip) | (go_at_call 94; refine (hasNext_any _ _).mono ?_; rintro e w2 ⟨rfl, hw2⟩; obtain rfl : _ = w2 := hw2; skip) | (go_at_call 96; refine (hasClose_any _ _).mono ?_; rintro e w2 ⟨rfl, hw2⟩; obtain rfl : _ = w2 := hw2; skip))
  go_upto_region 9 with (go_at_call 77; refine (wtext_k w0.heap.size b _ _ m.ack hW hBw (by omega) (by (first | omega | exact Nat.zero_le _ | (simp only [List.length_append]; omega) | (simp only [List.nil_append]; omega) | (simp only [List.nil_append, List.length_append]; omega) | (simp only [List.length_append, str_len]; omega) | (simp only [List.length_append, List.nil_append, str_len]; omega)))).mono ?_; rintro e w2 ⟨rfl, hW, hb2, hk2⟩; have hg := hk2.row2 hg hgb (by decide); have hBw := Nat.le_trans hBw hk2.size; have hbel := hbel.trans hb2; have hkw := hkw.trans hk2; clear hb2 hk2 q0 q1 q2 q3 q4 q5 q6 q7 q8 q9 q10 q11 q12 q13 q14 q15 q16 q17; obtain ⟨q0, q1, q2, q3, q4, q5, q6, q7, q8, q9, q10, q11, q12, q13, q14, q15, q16, q17⟩ := msg_cells hg; rw [hk] at q0)
  go_upto_region 11 with (first | (go_at_call 53; refine (hasAck_any _ _).mono ?_; rintro e w2 ⟨rfl, hw2⟩; obtain rfl : _ = w2 := hw2; skip) | (go_at_call 94; refine (hasNext_any _ _).mono ?_; rintro e w2 ⟨rfl, hw2⟩; obtain rfl : _ = w2 := hw2; skip) | (go_at_call 96; refine (hasClose_any _ _).mono ?_; rintro e w2 ⟨rfl, hw2⟩; obtain rfl : _ = w2 := hw2; skip))
  go_upto_region 12 with (go_at_call 76; refine (wnumI_k w0.heap.size b _ _ m.he hW hBw (by omega) (by omega) (by (first | omega | exact Nat.zero_le _ | (simp only [List.length_append]; omega) | (simp only [List.nil_append]; omega) | (simp only [List.nil_append, List.length_append]; omega) | (simp only [List.length_append, str_len]; omega) | (simp only [List.length_append, List.nil_append, str_len]; omega)))).mono ?_; rintro e w2 ⟨rfl, hW, hb2, hk2⟩; have hg := hk2.row2 hg hgb (by decide); have hBw := Nat.le_trans hBw hk2.size; have hbel := hbel.trans hb2; have hkw := hkw.trans hk2; clear hb2 hk2 q0 q1 q2 q3 q4 q5 q6 q7 q8 q9 q10 q11 q12 q13 q14 q15 q16 q17; obtain ⟨q0, q1, q2, q3, q4, q5, q6, q7, q8, q9, q10, q11, q12, q13, q14, q15, q16, q17⟩ := msg_cells hg; rw [hk] at q0)
  go_upto_region 13 with (go_at_call 95; refine (pfWrite_any b w0 _ _ m.pct m.pa m.pn m.pc m.pxs hm.p (hw0.trans hbel) hW hm.plen hP (by (first | omega | exact Nat.zero_le _ | (simp only [List.length_append]; omega) | (simp only [List.nil_append]; omega) | (simp only [List.nil_append, List.length_append]; omega) | (simp only [List.length_append, str_len]; omega) | (simp only [List.length_append, List.nil_append, str_len]; omega)))).mono ?_; rintro e w2 ⟨rfl, hW, hb2, hk2⟩; have hg := hk2.row2 hg hgb (by decide); have hBw := Nat.le_trans hBw hk2.size; have hbel := hbel.trans hb2; have hkw := hkw.trans hk2; clear hb2 hk2 q0 q1 q2 q3 q4 q5 q6 q7 q8 q9 q10 q11 q12 q13 q14 q15 q16 q17; obtain ⟨q0, q1, q2, q3, q4, q5, q6, q7, q8, q9, q10, q11, q12, q13, q14, q15, q16, q17⟩ := msg_cells hg; rw [hk] at q0)
  go_wp2_with (first | (go_at_call 53; refine (hasAck_any _ _).mono ?_; rintro e w2 ⟨rfl, hw2⟩; obtain rfl : _ = w2 := hw2; skip) | (go_at_call 94; refine (hasNext_any _ _).mono ?_; rintro e w2 ⟨rfl, hw2⟩; obtain rfl : _ = w2 := hw2; skip) | (go_at_call 96; refine (hasClose_any _ _).mono ?_; rintro e w2 ⟨rfl, hw2⟩; obtain rfl : _ = w2 := hw2; skip))
  go_returns
  refine ⟨rfl, ?_, hbel, hkw⟩
  rw [HF.out]
  have h9 := hW
  simp only [List.append_assoc, List.nil_append] at h9
  exact h9
set_option maxRecDepth 100000 in
set_option maxHeartbeats 4000000 in
theorem msgWrite_4 (b : Nat) (w0 w : World) (m : MsgV) (hk : m.kd = 4) (hm : m.ok w0) (hw0 : Below w0.heap.size w0 w) (hW : WAt w0.heap.size b w [] 0) (hR : restB m = true) :
    Calls Try.prog 49 #[.pointer (some ⟨b, 0, none⟩), .agg m.row] w fun e w' => e = .returned (.tuple #[]) ∧ WAt w0.heap.size b w' (msgBy m) 0 ∧ Below w0.heap.size w w' ∧ KW b w w' := by
  have HF : Hid (msgBy m = putL 4 ++ (pkBy m.sp m.sc m.dp m.dc m.sq m.da m.th m.ta ++ (putL m.nx ++ (putL m.he ++ pfBy m.pct m.pxs)))) := Lib.hid (by unfold msgBy; rw [if_neg (show ¬ m.kd = 1 by omega), if_neg (show ¬ m.kd = 2 by omega), if_neg (show ¬ m.kd = 3 by omega), if_pos hk])
  obtain ⟨ya, hK, y1, y2, y3, y4, hP, hC⟩ := rest_2 (by omega) hR
  obtain ⟨z1, z2, z3, _⟩ := mayK_boundsM hK
  have zpk := pkBy_len m.sp m.sc m.dp m.dc m.sq m.da m.th m.ta z1 z2 z3
  have zp := pfBy_len hP
  have zc := pfBy_len hC
  have z5 := putL_len' m.he
  have z6 := putL_len' m.nx
  have z7 := putL_len' (m.ack.size : Int)
  have z9 := putL_len' 4
  have hBw := hw0.size
  have hgb : w.heap.size ≠ b := by have := hW.lt; omega
  go_enter Try.func49, Try.ntmps49
  go_upto_region 1 with fail
  refine wp_nameE _ (fun W1 hX => ?_)
  have hg : W1.heap[w.heap.size]? = some (.cells m.row 34 (0, 0)) := by rw [hX]; exact heap_push _ _ _
  have hb1 : Below w.heap.size w W1 := by rw [hX]; exact Below.alloc (Below.refl _ _) (Nat.le_refl _) _
  clear hX
  have hkw : KW b w W1 := KW.of hb1
  have hbel : Below w0.heap.size w W1 := hb1.mono hBw
  have hW := hW.below hb1
  have hBw := Nat.le_trans hBw hb1.size
  clear hb1
  obtain ⟨q0, q1, q2, q3, q4, q5, q6, q7, q8, q9, q10, q11, q12, q13, q14, q15, q16, q17⟩ := msg_cells hg
  rw [hk] at q0
  go_upto_region 2 with (go_at_call 76; refine (wnumI_k w0.heap.size b _ _ 4 hW hBw (by omega) (by omega) (by (first | omega | exact Nat.zero_le _ | (simp only [List.length_append]; omega) | (simp only [List.nil_append]; omega) | (simp only [List.nil_append, List.length_append]; omega) | (simp only [List.length_append, str_len]; omega) | (simp only [List.length_append, List.nil_append, str_len]; omega)))).mono ?_; rintro e w2 ⟨rfl, hW, hb2, hk2⟩; have hg := hk2.row2 hg hgb (by decide); have hBw := Nat.le_trans hBw hk2.size; have hbel := hbel.trans hb2; have hkw := hkw.trans hk2; clear hb2 hk2 q0 q1 q2 q3 q4 q5 q6 q7 q8 q9 q10 q11 q12 q13 q14 q15 q16 q17; obtain ⟨q0, q1, q2, q3, q4, q5, q6, q7, q8, q9, q10, q11, q12, q13, q14, q15, q16, q17⟩ := msg_cells hg; rw [hk] at q0)
  go_upto_region 7 with (go_at_call 93; refine (pkWriteI w0.heap.size b _ _ m hW hBw hK (by (first | omega | exact Nat.zero_le _ | (simp only [List.length_append]; omega) | (simp only [List.nil_append]; omega) | (simp only [List.nil_append, List.length_append]; omega) | (simp only [List.length_append, str_len]; omega) | (simp only [List.length_append, List.nil_append, str_len]; omega)))).mono ?_; rintro e w2 ⟨rfl, hW, hb2, hk2⟩; have hg := hk2.row2 hg hgb (by decide); have hBw := Nat.le_trans hBw hk2.size; have hbel := hbel.trans hb2; have hkw := hkw.trans hk2; clear hb2 hk2 q0 q1 q2 q3 q4 q5 q6 q7 q8 q9 q10 q11 q12 q13 q14 q15 q16 q17; obtain ⟨q0, q1, q2, q3, q4, q5, q6, q7, q8, q9, q10, q11, q12, q13, q14, q15, q16, q17⟩ := msg_cells hg; rw [hk] at q0)
  go_upto_region 10 with (first | (go_at_call 53; refine (hasAck_any _ _).mono ?_; rintro e w2 ⟨rfl, hw2⟩; obtain rfl : _ = w2 := hw2; skip) | (go_at_call 94; refine (hasNext_any _ _).mono ?_; rintro e w2 ⟨rfl, hw2⟩; obtain rfl : _ = w2 := hw2; skip) | (go_at_call 96; refine (hasClose_any _ _).mono ?_; rintro e w2 ⟨rfl, hw2⟩; obtain rfl : _ = w2 := hw2; skip))
  go_upto_region 11 with (go_at_call 76; refine (wnumI_k w0.heap.size b _ _ m.nx hW hBw (by omega) (by omega) (by (first | omega | exact Nat.zero_le _ | (simp only [List.length_append]; omega) | (simp only [List.nil_append]; omega) | (simp only [List.nil_append, List.length_append]; omega) | (simp only [List.length_append, str_len]; omega) | (simp only [List.length_append, List.nil_append, str_len]; omega)))).mono ?_; rintro e w2 ⟨rfl, hW, hb2, hk2⟩; have hg := hk2.row2 hg hgb (by decide); have hBw := Nat.le_trans hBw hk2.size; have hbel := hbel.trans hb2; have hkw := hkw.trans hk2; clear hb2 hk2 q0 q1 q2 q3 q4 q5 q6 q7 q8 q9 q10 q11 q12 q13 q14 q15 q16 q17; obtain ⟨q0, q1, q2, q3, q4, q5, q6, q7, q8, q9, q10, q11, q12, q13, q14, q15, q16, q17⟩ := msg_cells hg; rw [hk] at q0)
  go_upto_region 12 with (go_at_call 76; refine (wnumI_k w0.heap.size b _ _ m.he hW hBw (by omega) (by omega) (by (first | omega | exact Nat.zero_le _ | (simp only [List.length_append]; omega) | (simp only [List.nil_append]; omega) | (simp only [List.nil_append, List.length_append]; omega) | (simp only [List.length_append, str_len]; omega) | (simp only [List.length_append, List.nil_append, str_len]; omega)))).mono ?_; rintro e w2 ⟨rfl, hW, hb2, hk2⟩; have hg := hk2.row2 hg hgb (by decide); have hBw := Nat.le_trans hBw hk2.size; have hbel := hbel.trans hb2; have hkw := hkw.trans hk2; clear hb2 hk2 q0 q1 q2 q3 q4 q5 q6 q7 q8 q9 q10 q11 q12 q13 q14 q15 q16 q17; obtain ⟨q0, q1, q2, q3, q4, q5, q6, q7, q8, q9, q10, q11, q12, q13, q14, q15, q16, q17⟩ := msg_cells hg; rw [hk] at q0)
  go_upto_region 13 with (go_at_call 95; refine (pfWrite_any b w0 _ _ m.pct m.pa m.pn m.pc m.pxs hm.p (hw0.trans hbel) hW hm.plen hP (by (first | omega | exact Nat.zero_le _ | (simp only [List.length_append]; omega) | (simp only [List.nil_append]; omega) | (simp only [List.nil_append, List.length_append]; omega) | (simp only [List.length_append, str_len]; omega) | (simp only [List.length_append, List.nil_append, str_len]; omega)))).mono ?_; rintro e w2 ⟨rfl, hW, hb2, hk2⟩; have hg := hk2.row2 hg hgb (by decide); have hBw := Nat.le_trans hBw hk2.size; have hbel := hbel.trans hb2; have hkw := hkw.trans hk2; clear hb2 hk2 q0 q1 q2 q3 q4 q5 q6 q7 q8 q9 q10 q11 q12 q13 q14 q15 q16 q17; obtain ⟨q0, q1, q2, q3, q4, q5, q6, q7, q8, q9, q10, q11, q12, q13, q14, q15, q16, q17⟩ := msg_cells hg; rw [hk] at q0)
  go_wp2_with (first | (go_at_call 53; refine (hasAck_any _ _).mono ?_; rintro e w2 ⟨rfl, hw2⟩; obtain rfl : _ = w2 := hw2; skip) | (go_at_call 94; refine (hasNext_any _ _).mono ?_; rintro e w2 ⟨rfl, hw2⟩; obtain rfl : _ = w2 := hw2; skip) | (go_at_call 96; refine (hasClose_any _ _).mono ?_; rintro e w2 ⟨rfl, hw2⟩; obtain rfl : _ = w2 := hw2; skip))
  go_returns
  refine ⟨rfl, ?_, hbel, hkw⟩
  rw [HF.out]
  have h9 := hW
  simp only [List.append_assoc, List.nil_append] at h9
  exact h9
set_option maxRecDepth 100000 in
set_option maxHeartbeats 4000000 in
theorem msgWrite_5 (b : Nat) (w0 w : World) (m : MsgV) (hk : m.kd = 5) (hm : m.ok w0) (hw0 : Below w0.heap.size w0 w) (hW : WAt w0.heap.size b w [] 0) (hR : restB m = true) :
    Calls Try.prog 49 #[.pointer (some ⟨b, 0, none⟩), .agg m.row] w fun e w' => e = .returned (.tuple #[]) ∧ WAt w0.heap.size b w' (msgBy m) 0 ∧ Below w0.heap.size w w' ∧ KW b w w' := by
  have HF : Hid (msgBy m = putL 5 ++ (pkBy m.sp m.sc m.dp m.dc m.sq m.da m.th m.ta ++ (putL m.nx ++ (putL m.he ++ (pfBy m.pct m.pxs ++ pfBy m.cct m.cxs))))) := Lib.hid (by unfold msgBy; rw [if_neg (show ¬ m.kd = 1 by omega), if_neg (show ¬ m.kd = 2 by omega), if_neg (show ¬ m.kd = 3 by omega), if_neg (show ¬ m.kd = 4 by omega)])
  obtain ⟨ya, hK, y1, y2, y3, y4, hP, hC⟩ := rest_2 (by omega) hR
  obtain ⟨z1, z2, z3, _⟩ := mayK_boundsM hK
  have zpk := pkBy_len m.sp m.sc m.dp m.dc m.sq m.da m.th m.ta z1 z2 z3
  have zp := pfBy_len hP
  have zc := pfBy_len hC
  have z5 := putL_len' m.he
  have z6 := putL_len' m.nx
  have z7 := putL_len' (m.ack.size : Int)
  have z9 := putL_len' 5
  have hBw := hw0.size
  have hgb : w.heap.size ≠ b := by have := hW.lt; omega
  go_enter Try.func49, Try.ntmps49
  go_upto_region 1 with fail
  refine wp_nameE _ (fun W1 hX => ?_)
  have hg : W1.heap[w.heap.size]? = some (.cells m.row 34 (0, 0)) := by rw [hX]; exact heap_push _ _ _
  have hb1 : Below w.heap.size w W1 := by rw [hX]; exact Below.alloc (Below.refl _ _) (Nat.le_refl _) _
  clear hX
  have hkw : KW b w W1 := KW.of hb1
  have hbel : Below w0.heap.size w W1 := hb1.mono hBw
  have hW := hW.below hb1
  have hBw := Nat.le_trans hBw hb1.size
  clear hb1
  obtain ⟨q0, q1, q2, q3, q4, q5, q6, q7, q8, q9, q10, q11, q12, q13, q14, q15, q16, q17⟩ := msg_cells hg
  rw [hk] at q0
  go_upto_region 2 with (go_at_call 76; refine (wnumI_k w0.heap.size b _ _ 5 hW hBw (by omega) (by omega) (by (first | omega | exact Nat.zero_le _ | (simp only [List.length_append]; omega) | (simp only [List.nil_append]; omega) | (simp only [List.nil_append, List.length_append]; omega) | (simp only [List.length_append, str_len]; omega) | (simp only [List.length_append, List.nil_append, str_len]; omega)))).mono ?_; rintro e w2 ⟨rfl, hW, hb2, hk2⟩; have hg := hk2.row2 hg hgb (by decide); have hBw := Nat.le_trans hBw hk2.size; have hbel := hbel.trans hb2; have hkw := hkw.trans hk2; clear hb2 hk2 q0 q1 q2 q3 q4 q5 q6 q7 q8 q9 q10 q11 q12 q13 q14 q15 q16 q17; obtain ⟨q0, q1, q2, q3, q4, q5, q6, q7, q8, q9, q10, q11, q12, q13, q14, q15, q16, q17⟩ := msg_cells hg; rw [hk] at q0)
  go_upto_region 7 with (go_at_call 93; refine (pkWriteI w0.heap.size b _ _ m hW hBw hK (by (first | omega | exact Nat.zero_le _ | (simp only [List.length_append]; omega) | (simp only [List.nil_append]; omega) | (simp only [List.nil_append, List.length_append]; omega) | (simp only [List.length_append, str_len]; omega) | (simp only [List.length_append, List.nil_append, str_len]; omega)))).mono ?_; rintro e w2 ⟨rfl, hW, hb2, hk2⟩; have hg := hk2.row2 hg hgb (by decide); have hBw := Nat.le_trans hBw hk2.size; have hbel := hbel.trans hb2; have hkw := hkw.trans hk2; clear hb2 hk2 q0 q1 q2 q3 q4 q5 q6 q7 q8 q9 q10 q11 q12 q13 q14 q15 q16 q17; obtain ⟨q0, q1, q2, q3, q4, q5, q6, q7, q8, q9, q10, q11, q12, q13, q14, q15, q16, q17⟩ := msg_cells hg; rw [hk] at q0)
  go_upto_region 10 with (first | (go_at_call 53; refine (hasAck_any _ _).mono ?_; rintro e w2 ⟨rfl, hw2⟩; obtain rfl : _ = w2 := hw2; skip) | (go_at_call 94; refine (hasNext_any _ _).mono ?_; rintro e w2 ⟨rfl, hw2⟩; obtain rfl : _ = w2 := hw2; skip) | (go_at_call 96; refine (hasClose_any _ _).mono ?_; rintro e w2 ⟨rfl, hw2⟩; obtain rfl : _ = w2 := hw2; skip))
  go_upto_region 11 with (go_at_call 76; refine (wnumI_k w0.heap.size b _ _ m.nx hW hBw (by omega) (by omega) (by (first | omega | exact Nat.zero_le _ | (simp only [List.length_append]; omega) | (simp only [List.nil_append]; omega) | (simp only [List.nil_append, List.length_append]; omega) | (simp only [List.length_append, str_len]; omega) | (simp only [List.length_append, List.nil_append, str_len]; omega)))).mono ?_; rintro e w2 ⟨rfl, hW, hb2, hk2⟩; have hg := hk2.row2 hg hgb (by decide); have hBw := Nat.le_trans hBw hk2.size; have hbel := hbel.trans hb2; have hkw := hkw.trans hk2; clear hb2 hk2 q0 q1 q2 q3 q4 q5 q6 q7 q8 q9 q10 q11 q12 q13 q14 q15 q16 q17; obtain ⟨q0, q1, q2, q3, q4, q5, q6, q7, q8, q9, q10, q11, q12, q13, q14, q15, q16, q17⟩ := msg_cells hg; rw [hk] at q0)
  go_upto_region 12 with (go_at_call 76; refine (wnumI_k w0.heap.size b _ _ m.he hW hBw (by omega) (by omega) (by (first | omega | exact Nat.zero_le _ | (simp only [List.length_append]; omega) | (simp only [List.nil_append]; omega) | (simp only [List.nil_append, List.length_append]; omega) | (simp only [List.length_append, str_len]; omega) | (simp only [List.length_append, List.nil_append, str_len]; omega)))).mono ?_; rintro e w2 ⟨rfl, hW, hb2, hk2⟩; have hg := hk2.row2 hg hgb (by decide); have hBw := Nat.le_trans hBw hk2.size; have hbel := hbel.trans hb2; have hkw := hkw.trans hk2; clear hb2 hk2 q0 q1 q2 q3 q4 q5 q6 q7 q8 q9 q10 q11 q12 q13 q14 q15 q16 q17; obtain ⟨q0, q1, q2, q3, q4, q5, q6, q7, q8, q9, q10, q11, q12, q13, q14, q15, q16, q17⟩ := msg_cells hg; rw [hk] at q0)
  go_upto_region 13 with (go_at_call 95; refine (pfWrite_any b w0 _ _ m.pct m.pa m.pn m.pc m.pxs hm.p (hw0.trans hbel) hW hm.plen hP (by (first | omega | exact Nat.zero_le _ | (simp only [List.length_append]; omega) | (simp only [List.nil_append]; omega) | (simp only [List.nil_append, List.length_append]; omega) | (simp only [List.length_append, str_len]; omega) | (simp only [List.length_append, List.nil_append, str_len]; omega)))).mono ?_; rintro e w2 ⟨rfl, hW, hb2, hk2⟩; have hg := hk2.row2 hg hgb (by decide); have hBw := Nat.le_trans hBw hk2.size; have hbel := hbel.trans hb2; have hkw := hkw.trans hk2; clear hb2 hk2 q0 q1 q2 q3 q4 q5 q6 q7 q8 q9 q10 q11 q12 q13 q14 q15 q16 q17; obtain ⟨q0, q1, q2, q3, q4, q5, q6, q7, q8, q9, q10, q11, q12, q13, q14, q15, q16, q17⟩ := msg_cells hg; rw [hk] at q0)
  go_upto_region 14 with (first | (go_at_call 53; refine (hasAck_any _ _).mono ?_; rintro e w2 ⟨rfl, hw2⟩; obtain rfl : _ = w2 := hw2; skip) | (go_at_call 94; refine (hasNext_any _ _).mono ?_; rintro e w2 ⟨rfl, hw2⟩; obtain rfl : _ = w2 := hw2; skip) | (go_at_call 96; refine (hasClose_any _ _).mono ?_; rintro e w2 ⟨rfl, hw2⟩; obtain rfl : _ = w2 := hw2; skip))
  go_wp2_with (go_at_call 95; refine (pfWrite_any b w0 _ _ m.cct m.ca m.cn m.cc m.cxs hm.c (hw0.trans hbel) hW hm.clen hC (by (first | omega | exact Nat.zero_le _ | (simp only [List.length_append]; omega) | (simp only [List.nil_append]; omega) | (simp only [List.nil_append, List.length_append]; omega) | (simp only [List.length_append, str_len]; omega) | (simp only [List.length_append, List.nil_append, str_len]; omega)))).mono ?_; rintro e w2 ⟨rfl, hW, hb2, hk2⟩; have hg := hk2.row2 hg hgb (by decide); have hBw := Nat.le_trans hBw hk2.size; have hbel := hbel.trans hb2; have hkw := hkw.trans hk2; clear hb2 hk2 q0 q1 q2 q3 q4 q5 q6 q7 q8 q9 q10 q11 q12 q13 q14 q15 q16 q17; obtain ⟨q0, q1, q2, q3, q4, q5, q6, q7, q8, q9, q10, q11, q12, q13, q14, q15, q16, q17⟩ := msg_cells hg; rw [hk] at q0)
  go_returns
  refine ⟨rfl, ?_, hbel, hkw⟩
  rw [HF.out]
  have h9 := hW
  simp only [List.append_assoc, List.nil_append] at h9
  exact h9
set_option maxRecDepth 100000 in
set_option maxHeartbeats 4000000 in
theorem msgWrite_any (b : Nat) (w0 w : World) (m : MsgV) (hm : m.ok w0) (hw0 : Below w0.heap.size w0 w) (hW : WAt w0.heap.size b w [] 0) (hM : mayMsgB m = true) :
    Calls Try.prog 49 #[.pointer (some ⟨b, 0, none⟩), .agg m.row] w fun e w' => e = .returned (.tuple #[]) ∧ WAt w0.heap.size b w' (msgBy m) 0 ∧ Below w0.heap.size w w' ∧ KW b w w' := by
  obtain ⟨h1, h2, h3⟩ := may_kd hM
  by_cases k1 : m.kd = 1
  · exact msgWrite_1 b w0 w m k1 hm hw0 hW h3
  by_cases k2 : m.kd = 2
  · exact msgWrite_2 b w0 w m k2 hm hw0 hW h3
  by_cases k3 : m.kd = 3
  · exact msgWrite_3 b w0 w m k3 hm hw0 hW h3
  by_cases k4 : m.kd = 4
  · exact msgWrite_4 b w0 w m k4 hm hw0 hW h3
  exact msgWrite_5 b w0 w m (by omega) hm hw0 hW h3
end Go.Proofs.Ythipnkbfdkmhaaa
