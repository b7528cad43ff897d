/- Messages written. Messages in bytes, their size. Packets out of bytes: an end. Packets out of bytes. Messages out of bytes, as lists: a codec. -/
import Derived.Test.YthipnkbfdkmhaaaMsg4
import Derived.Test.YthipnkbfdkmhaaaPf3
import Derived.Test.YthipnkbfdkmhaaaSC
import Derived.WalkKit
import Derived.ProofKit
import Derived.Handy
import Derived.Below
import Derived.Lib.Hide
import Derived.IntWalk
import Derived.Outline
import Derived.WalkLawsBesides
import Derived.WalkSpells
import Derived.Test.YthipnkbfdkmhaaaGD
import Derived.Test.YthipnkbfdkmhaaaGC
import Derived.Deep.MidRow
import Derived.Deep.Cut
import Derived.BigQuiet
import Derived.Test.YthipnkbfdkmhaaaSA
namespace Go.Proofs.Ythipnkbfdkmhaaa
open Go.RowKit
attribute [local go_sem] strV
set_option linter.unusedVariables false

theorem mayK_boundsM {sp : ByteArray} {sc : Int} {dp : ByteArray} {dc sq : Int} {da : ByteArray} {th ta : Int} (h : mayK sp sc dp dc sq da th ta = true) :
    sp.size ≤ 12 ∧ dp.size ≤ 12 ∧ da.size ≤ 200 ∧ 0 ≤ sc ∧ sc ≤ 999 ∧ 0 ≤ dc ∧ dc ≤ 999 ∧ 1 ≤ sq ∧ sq ≤ 1099511627776 ∧ 0 ≤ th ∧ th ≤ 1099511627776 ∧ 0 ≤ ta ∧ ta ≤ 1099511627776 := by
  unfold mayK at h
  simp only [Bool.and_eq_true, decide_eq_true_eq] at h
  obtain ⟨⟨⟨⟨⟨⟨⟨⟨h1, h2⟩, h3⟩, h4⟩, h5⟩, h6⟩, h7⟩, h8⟩, h9⟩ := h
  have a := mayE_bounds h1
  have b := mayE_bounds h2
  omega
theorem wnumI_k (B b : Nat) (w : World) (l : List UInt8) (v : Int) (h : WAt B b w l 0) (hBw : B ≤ w.heap.size) (h0 : 0 ≤ v) (h1 : v ≤ 72057594037927935) (hlen : l.length ≤ 1000000) :
    Calls Try.prog 76 #[.pointer (some ⟨b, 0, none⟩), .int .i64 v] w fun e w' => e = .returned (.tuple #[]) ∧ WAt B b w' (l ++ putL v) 0 ∧ Below B w w' ∧ KW b w w' := by
  obtain ⟨x, rfl⟩ : ∃ x : Nat, v = x := ⟨v.toNat, by omega⟩
  exact wnum_k B b w l x h hBw (by omega) hlen
theorem pkWriteI (B b : Nat) (w : World) (l : List UInt8) (m : MsgV) (hW : WAt B b w l 0) (hBw : B ≤ w.heap.size) (hK : mayK m.sp m.sc m.dp m.dc m.sq m.da m.th m.ta = true) (hl : l.length ≤ 700000) :
    Calls Try.prog 93 #[.pointer (some ⟨b, 0, none⟩), .agg #[.string m.sp, .int .i64 m.sc, .string m.dp, .int .i64 m.dc, .int .i64 m.sq, .string m.da, .int .i64 m.th, .int .i64 m.ta]] w fun e w' => e = .returned (.tuple #[]) ∧ WAt B b w' (l ++ pkBy m.sp m.sc m.dp m.dc m.sq m.da m.th m.ta) 0 ∧ Below B w w' ∧ KW b w w' := by
  obtain ⟨y1, y2, y3, y4, y5, y6, y7, y8, y9, y10, y11, y12, y13⟩ := mayK_boundsM hK
  have := pkWrite_any B b w l m.sp m.sc.toNat m.dp m.dc.toNat m.sq.toNat m.da m.th.toNat m.ta.toNat hW hBw y1 y2 y3 (by omega) (by omega) (by omega) (by omega) (by omega) hl
  rw [Int.toNat_of_nonneg (by omega), Int.toNat_of_nonneg (by omega), Int.toNat_of_nonneg (by omega), Int.toNat_of_nonneg (by omega), Int.toNat_of_nonneg (by omega)] at this
  exact this
theorem pfBy_len {ct : Int} {xs : List LeafV} (h : mayPfB ct xs = true) : (pfBy ct xs).length ≤ 2448 := by
  obtain ⟨m1, m2, m3, m4⟩ := mayPfB_parts h
  have hlb : ∀ x ∈ xs, (leafBy x).length ≤ 1216 := fun x hx => leafBy_len (m4 x hx).1 (m4 x hx).2.1 (m4 x hx).2.2.2.2
  have hf := flat_leB hlb xs.length
  rw [List.take_length] at hf
  have a1 := putL_len' ct; have a2 := putL_len' (xs.length : Int)
  unfold pfBy
  simp only [List.length_append]
  omega
def msgBy (m : MsgV) : List UInt8 :=
  if m.kd = 1 then putL 1 ++ (putL m.hh ++ (putL m.ht ++ m.rt.1))
  else if m.kd = 2 then putL 2 ++ (pkBy m.sp m.sc m.dp m.dc m.sq m.da m.th m.ta ++ (putL m.he ++ pfBy m.pct m.pxs))
  else if m.kd = 3 then putL 3 ++ (pkBy m.sp m.sc m.dp m.dc m.sq m.da m.th m.ta ++ (putL (m.ack.size : Int) ++ (m.ack.data.toList ++ (putL m.he ++ pfBy m.pct m.pxs))))
  else if m.kd = 4 then putL 4 ++ (pkBy m.sp m.sc m.dp m.dc m.sq m.da m.th m.ta ++ (putL m.nx ++ (putL m.he ++ pfBy m.pct m.pxs)))
  else putL 5 ++ (pkBy m.sp m.sc m.dp m.dc m.sq m.da m.th m.ta ++ (putL m.nx ++ (putL m.he ++ (pfBy m.pct m.pxs ++ pfBy m.cct m.cxs))))
theorem may_kd {m : MsgV} (h : mayMsgB m = true) : 1 ≤ m.kd ∧ m.kd ≤ 5 ∧ restB m = true := by
  unfold mayMsgB at h
  simp only [Bool.and_eq_true, Bool.not_eq_true', decide_eq_false_iff_not] at h
  obtain ⟨⟨⟨h1, h2⟩, _⟩, h3⟩ := h
  exact ⟨by omega, by omega, h3⟩
theorem rest_1 {m : MsgV} (k : m.kd = 1) (h : restB m = true) : 1 ≤ m.hh ∧ m.hh ≤ 1099511627776 ∧ 0 ≤ m.ht ∧ m.ht ≤ 1099511627776 := by
  unfold restB heightB at h
  rw [if_pos k] at h
  simp only [Bool.and_eq_true, decide_eq_true_eq] at h
  omega
theorem rest_2 {m : MsgV} (k : m.kd ≠ 1) (h : restB m = true) : (m.kd = 3 → m.ack.size ≤ 32) ∧ mayK m.sp m.sc m.dp m.dc m.sq m.da m.th m.ta = true ∧ 1 ≤ m.he ∧ m.he ≤ 1099511627776 ∧ 0 ≤ m.nx ∧ m.nx ≤ 1099511627777 ∧ mayPfB m.pct m.pxs = true ∧ mayPfB m.cct m.cxs = true := by
  unfold restB heightB at h
  rw [if_neg k] at h
  simp only [Bool.and_eq_true, decide_eq_true_eq] at h
  obtain ⟨⟨⟨⟨⟨⟨h1, h2⟩, h3⟩, h4⟩, h5⟩, h6⟩, h7⟩ := h
  refine ⟨fun e => ?_, h2, h3.1, h3.2, h4, h5, h6, h7⟩
  rw [e] at h1
  simp at h1
  omega
theorem msg_root {w : World} {g : Nat} {m : MsgV} {e : TypeId} (h : w.heap[g]? = some (.cells m.row e (0, 0))) : w.rangeAt g 3 m.rt.cells := fun j v hv => by
  have h9 := msg_header h (2 + j) v (by unfold hdL; rw [List.getElem?_append_right (by simp)]; simpa using hv)
  rwa [show 1 + (2 + j) = 3 + j by omega] at h9
set_option maxRecDepth 100000 in
set_option maxHeartbeats 4000000 in
theorem msgWrite_1 (b : Nat) (w0 w : World) (m : MsgV) (hk : m.kd = 1) (hm : m.ok w0) (hw0 : Below w0.heap.size w0 w) (hW : WAt w0.heap.size b w [] 0) (hR : restB m = true) :
    Calls Try.prog 49 #[.pointer (some ⟨b, 0, none⟩), .agg m.row] w fun e w' => e = .returned (.tuple #[]) ∧ WAt w0.heap.size b w' (msgBy m) 0 ∧ Below w0.heap.size w w' ∧ KW b w w' := by
  have HF : Hid (msgBy m = putL 1 ++ (putL m.hh ++ (putL m.ht ++ m.rt.1))) := Lib.hid (by unfold msgBy; rw [if_pos hk])
  obtain ⟨y1, y2, y3, y4⟩ := rest_1 hk hR
  have z9 := putL_len' 1
  have z8 := putL_len' m.hh
  have z7 := putL_len' m.ht
  have hBw := hw0.size
  have hgb : w.heap.size ≠ b := by have := hW.lt; omega
  go_enter Try.func49, Try.ntmps49
  go_upto_region 1 with fail
  refine wp_nameE _ (fun W1 hX => ?_)
  have hg : W1.heap[w.heap.size]? = some (.cells m.row 34 (0, 0)) := by rw [hX]; exact heap_push _ _ _
  have hb1 : Below w.heap.size w W1 := by rw [hX]; exact Below.alloc (Below.refl _ _) (Nat.le_refl _) _
  clear hX
  have hkw : KW b w W1 := KW.of hb1
  have hbel : Below w0.heap.size w W1 := hb1.mono hBw
  have hW := hW.below hb1
  have hBw := Nat.le_trans hBw hb1.size
  clear hb1
  obtain ⟨q0, q1, q2, q3, q4, q5, q6, q7, q8, q9, q10, q11, q12, q13, q14, q15, q16, q17⟩ := msg_cells hg
  rw [hk] at q0
  go_upto_region 2 with (go_at_call 76; refine (wnumI_k w0.heap.size b _ _ 1 hW hBw (by omega) (by omega) (by (first | omega | exact Nat.zero_le _ | (simp only [List.length_append]; omega) | (simp only [List.nil_append]; omega) | (simp only [List.nil_append, List.length_append]; omega) | (simp only [List.length_append, str_len]; omega) | (simp only [List.length_append, List.nil_append, str_len]; omega)))).mono ?_; rintro e w2 ⟨rfl, hW, hb2, hk2⟩; have hg := hk2.row2 hg hgb (by decide); have hBw := Nat.le_trans hBw hk2.size; have hbel := hbel.trans hb2; have hkw := hkw.trans hk2; clear hb2 hk2 q0 q1 q2 q3 q4 q5 q6 q7 q8 q9 q10 q11 q12 q13 q14 q15 q16 q17; obtain ⟨q0, q1, q2, q3, q4, q5, q6, q7, q8, q9, q10, q11, q12, q13, q14, q15, q16, q17⟩ := msg_cells hg; rw [hk] at q0)
  go_upto_region 4 with (go_at_call 76; refine (wnumI_k w0.heap.size b _ _ m.hh hW hBw (by omega) (by omega) (by (first | omega | exact Nat.zero_le _ | (simp only [List.length_append]; omega) | (simp only [List.nil_append]; omega) | (simp only [List.nil_append, List.length_append]; omega) | (simp only [List.length_append, str_len]; omega) | (simp only [List.length_append, List.nil_append, str_len]; omega)))).mono ?_; rintro e w2 ⟨rfl, hW, hb2, hk2⟩; have hg := hk2.row2 hg hgb (by decide); have hBw := Nat.le_trans hBw hk2.size; have hbel := hbel.trans hb2; have hkw := hkw.trans hk2; clear hb2 hk2 q0 q1 q2 q3 q4 q5 q6 q7 q8 q9 q10 q11 q12 q13 q14 q15 q16 q17; obtain ⟨q0, q1, q2, q3, q4, q5, q6, q7, q8, q9, q10, q11, q12, q13, q14, q15, q16, q17⟩ := msg_cells hg; rw [hk] at q0)
  go_upto_region 5 with (go_at_call 76; refine (wnumI_k w0.heap.size b _ _ m.ht hW hBw (by omega) (by omega) (by (first | omega | exact Nat.zero_le _ | (simp only [List.length_append]; omega) | (simp only [List.nil_append]; omega) | (simp only [List.nil_append, List.length_append]; omega) | (simp only [List.length_append, str_len]; omega) | (simp only [List.length_append, List.nil_append, str_len]; omega)))).mono ?_; rintro e w2 ⟨rfl, hW, hb2, hk2⟩; have hg := hk2.row2 hg hgb (by decide); have hBw := Nat.le_trans hBw hk2.size; have hbel := hbel.trans hb2; have hkw := hkw.trans hk2; clear hb2 hk2 q0 q1 q2 q3 q4 q5 q6 q7 q8 q9 q10 q11 q12 q13 q14 q15 q16 q17; obtain ⟨q0, q1, q2, q3, q4, q5, q6, q7, q8, q9, q10, q11, q12, q13, q14, q15, q16, q17⟩ := msg_cells hg; rw [hk] at q0)
  have hrt := msg_root hg
  go_wp2_with (first | (refine wpList_load_mid rfl 23 (.tmp 23) rfl w.heap.size 3 rfl m.rt.cells _ hrt Try.underlying23 rfl (hash_infoM m.rt) ?_; rw [H32.row]) | (go_at_call 92; refine (whash_k w0.heap.size b _ _ m.rt.1 m.rt.2 hBw hW (by (first | omega | exact Nat.zero_le _ | (simp only [List.length_append]; omega) | (simp only [List.nil_append]; omega) | (simp only [List.nil_append, List.length_append]; omega) | (simp only [List.length_append, str_len]; omega) | (simp only [List.length_append, List.nil_append, str_len]; omega)))).mono ?_; rintro e w9 ⟨rfl, hW, hb2, hk2⟩; have hBw := Nat.le_trans hBw hk2.size; have hbel := hbel.trans hb2; have hkw := hkw.trans hk2))
  go_returns
  refine ⟨rfl, ?_, hbel, hkw⟩
  rw [HF.out]
  have h9 := hW
  simp only [List.append_assoc, List.nil_append] at h9
  exact h9
set_option maxRecDepth 100000 in
set_option maxHeartbeats 4000000 in
theorem msgWrite_2 (b : Nat) (w0 w : World) (m : MsgV) (hk : m.kd = 2) (hm : m.ok w0) (hw0 : Below w0.heap.size w0 w) (hW : WAt w0.heap.size b w [] 0) (hR : restB m = true) :
    Calls Try.prog 49 #[.pointer (some ⟨b, 0, none⟩), .agg m.row] w fun e w' => e = .returned (.tuple #[]) ∧ WAt w0.heap.size b w' (msgBy m) 0 ∧ Below w0.heap.size w w' ∧ KW b w w' := by
  have HF : Hid (msgBy m = putL 2 ++ (pkBy m.sp m.sc m.dp m.dc m.sq m.da m.th m.ta ++ (putL m.he ++ pfBy m.pct m.pxs))) := Lib.hid (by unfold msgBy; rw [if_neg (show ¬ m.kd = 1 by omega), if_pos hk])
  obtain ⟨ya, hK, y1, y2, y3, y4, hP, hC⟩ := rest_2 (by omega) hR
  obtain ⟨z1, z2, z3, _⟩ := mayK_boundsM hK
  have zpk := pkBy_len m.sp m.sc m.dp m.dc m.sq m.da m.th m.ta z1 z2 z3
  have zp := pfBy_len hP
  have zc := pfBy_len hC
  have z5 := putL_len' m.he
  have z6 := putL_len' m.nx
  have z7 := putL_len' (m.ack.size : Int)
  have z9 := putL_len' 2
  have hBw := hw0.size
  have hgb : w.heap.size ≠ b := by have := hW.lt; omega
  go_enter Try.func49, Try.ntmps49
  go_upto_region 1 with fail
  refine wp_nameE _ (fun W1 hX => ?_)
  have hg : W1.heap[w.heap.size]? = some (.cells m.row 34 (0, 0)) := by rw [hX]; exact heap_push _ _ _
  have hb1 : Below w.heap.size w W1 := by rw [hX]; exact Below.alloc (Below.refl _ _) (Nat.le_refl _) _
  clear hX
  have hkw : KW b w W1 := KW.of hb1
  have hbel : Below w0.heap.size w W1 := hb1.mono hBw
  have hW := hW.below hb1
  have hBw := Nat.le_trans hBw hb1.size
  clear hb1
  obtain ⟨q0, q1, q2, q3, q4, q5, q6, q7, q8, q9, q10, q11, q12, q13, q14, q15, q16, q17⟩ := msg_cells hg
  rw [hk] at q0
  go_upto_region 2 with (go_at_call 76; refine (wnumI_k w0.heap.size b _ _ 2 hW hBw (by omega) (by omega) (by (first | omega | exact Nat.zero_le _ | (simp only [List.length_append]; omega) | (simp only [List.nil_append]; omega) | (simp only [List.nil_append, List.length_append]; omega) | (simp only [List.length_append, str_len]; omega) | (simp only [List.length_append, List.nil_append, str_len]; omega)))).mono ?_; rintro e w2 ⟨rfl, hW, hb2, hk2⟩; have hg := hk2.row2 hg hgb (by decide); have hBw := Nat.le_trans hBw hk2.size; have hbel := hbel.trans hb2; have hkw := hkw.trans hk2; clear hb2 hk2 q0 q1 q2 q3 q4 q5 q6 q7 q8 q9 q10 q11 q12 q13 q14 q15 q16 q17; obtain ⟨q0, q1, q2, q3, q4, q5, q6, q7, q8, q9, q10, q11, q12, q13, q14, q15, q16, q17⟩ := msg_cells hg; rw [hk] at q0)
  go_upto_region 7 with (go_at_call 93; refine (pkWriteI w0.heap.size b _ _ m hW hBw hK (by (first | omega | exact Nat.zero_le _ | (simp only [List.length_append]; omega) | (simp only [List.nil_append]; omega) | (simp only [List.nil_append, List.length_append]; omega) | (simp only [List.length_append, str_len]; omega) | (simp only [List.length_append, List.nil_append, str_len]; omega)))).mono ?_; rintro e w2 ⟨rfl, hW, hb2, hk2⟩; have hg := hk2.row2 hg hgb (by decide); have hBw := Nat.le_trans hBw hk2.size; have hbel := hbel.trans hb2; have hkw := hkw.trans hk2; clear hb2 hk2 q0 q1 q2 q3 q4 q5 q6 q7 q8 q9 q10 q11 q12 q13 q14 q15 q16 q17; obtain ⟨q0, q1, q2, q3, q4, q5, q6, q7, q8, q9, q10, q11, q12, q13, q14, q15, q16, q17⟩ := msg_cells hg; rw [hk] at q0)
  go_upto_region 11 with (first | (go_at_call 53; refine (hasAck_any _ _).mono ?_; rintro e w2 ⟨rfl, hw2⟩; obtain rfl : _ = w2 := hw2; skip) | (go_at_call 94; refine (hasNext_any _ _).mono ?_; rintro e w2 ⟨rfl, hw2⟩; obtain rfl : _ = w2 := hw2; skip) | (go_at_call 96; refine (hasClose_any _ _).mono ?_; rintro e w2 ⟨rfl, hw2⟩; obtain rfl : _ = w2 := hw2; skip))
  go_upto_region 12 with (go_at_call 76; refine (wnumI_k w0.heap.size b _ _ m.he hW hBw (by omega) (by omega) (by (first | omega | exact Nat.zero_le _ | (simp only [List.length_append]; omega) | (simp only [List.nil_append]; omega) | (simp only [List.nil_append, List.length_append]; omega) | (simp only [List.length_append, str_len]; omega) | (simp only [List.length_append, List.nil_append, str_len]; omega)))).mono ?_; rintro e w2 ⟨rfl, hW, hb2, hk2⟩; have hg := hk2.row2 hg hgb (by decide); have hBw := Nat.le_trans hBw hk2.size; have hbel := hbel.trans hb2; have hkw := hkw.trans hk2; clear hb2 hk2 q0 q1 q2 q3 q4 q5 q6 q7 q8 q9 q10 q11 q12 q13 q14 q15 q16 q17; obtain ⟨q0, q1, q2, q3, q4, q5, q6, q7, q8, q9, q10, q11, q12, q13, q14, q15, q16, q17⟩ := msg_cells hg; rw [hk] at q0)
  go_upto_region 13 with (go_at_call 95; refine (pfWrite_any b w0 _ _ m.pct m.pa m.pn m.pc m.pxs hm.p (hw0.trans hbel) hW hm.plen hP (by (first | omega | exact Nat.zero_le _ | (simp only [List.length_append]; omega) | (simp only [List.nil_append]; omega) | (simp only [List.nil_append, List.length_append]; omega) | (simp only [List.length_append, str_len]; omega) | (simp only [List.length_append, List.nil_append, str_len]; omega)))).mono ?_; rintro e w2 ⟨rfl, hW, hb2, hk2⟩; have hg := hk2.row2 hg hgb (by decide); have hBw := Nat.le_trans hBw hk2.size; have hbel := hbel.trans hb2; have hkw := hkw.trans hk2; clear hb2 hk2 q0 q1 q2 q3 q4 q5 q6 q7 q8 q9 q10 q11 q12 q13 q14 q15 q16 q17; obtain ⟨q0, q1, q2, q3, q4, q5, q6, q7, q8, q9, q10, q11, q12, q13, q14, q15, q16, q17⟩ := msg_cells hg; rw [hk] at q0)
  go_wp2_with (first | (go_at_call 53; refine (hasAck_any _ _).mono ?_; rintro e w2 ⟨rfl, hw2⟩; obtain rfl : _ = w2 := hw2; skip) | (go_at_call 94; refine (hasNext_any _ _).mono ?_; rintro e w2 ⟨rfl, hw2⟩; obtain rfl : _ = w2 := hw2; skip) | (go_at_call 96; refine (hasClose_any _ _).mono ?_; rintro e w2 ⟨rfl, hw2⟩; obtain rfl : _ = w2 := hw2; skip))
  go_returns
  refine ⟨rfl, ?_, hbel, hkw⟩
  rw [HF.out]
  have h9 := hW
  simp only [List.append_assoc, List.nil_append] at h9
  exact h9
set_option maxRecDepth 100000 in
set_option maxHeartbeats 4000000 in
theorem msgWrite_3 (b : Nat) (w0 w : World) (m : MsgV) (hk : m.kd = 3) (hm : m.ok w0) (hw0 : Below w0.heap.size w0 w) (hW : WAt w0.heap.size b w [] 0) (hR : restB m = true) :
    Calls Try.prog 49 #[.pointer (some ⟨b, 0, none⟩), .agg m.row] w fun e w' => e = .returned (.tuple #[]) ∧ WAt w0.heap.size b w' (msgBy m) 0 ∧ Below w0.heap.size w w' ∧ KW b w w' := by
  have HF : Hid (msgBy m = putL 3 ++ (pkBy m.sp m.sc m.dp m.dc m.sq m.da m.th m.ta ++ (putL (m.ack.size : Int) ++ (m.ack.data.toList ++ (putL m.he ++ pfBy m.pct m.pxs))))) := Lib.hid (by unfold msgBy; rw [if_neg (show ¬ m.kd = 1 by omega), if_neg (show ¬ m.kd = 2 by omega), if_pos hk])
  obtain ⟨ya, hK, y1, y2, y3, y4, hP, hC⟩ := rest_2 (by omega) hR
  obtain ⟨z1, z2, z3, _⟩ := mayK_boundsM hK
  have zpk := pkBy_len m.sp m.sc m.dp m.dc m.sq m.da m.th m.ta z1 z2 z3
  have zp := pfBy_len hP
  have zc := pfBy_len hC
  have z5 := putL_len' m.he
  have z6 := putL_len' m.nx
  have z7 := putL_len' (m.ack.size : Int)
  have ya := ya hk
  have z9 := putL_len' 3
  have hBw := hw0.size
  have hgb : w.heap.size ≠ b := by have := hW.lt; omega
  go_enter Try.func49, Try.ntmps49
  go_upto_region 1 with fail
  refine wp_nameE _ (fun W1 hX => ?_)
  have hg : W1.heap[w.heap.size]? = some (.cells m.row 34 (0, 0)) := by rw [hX]; exact heap_push _ _ _
  have hb1 : Below w.heap.size w W1 := by rw [hX]; exact Below.alloc (Below.refl _ _) (Nat.le_refl _) _
  clear hX
  have hkw : KW b w W1 := KW.of hb1
  have hbel : Below w0.heap.size w W1 := hb1.mono hBw
  have hW := hW.below hb1
  have hBw := Nat.le_trans hBw hb1.size
  clear hb1
  obtain ⟨q0, q1, q2, q3, q4, q5, q6, q7, q8, q9, q10, q11, q12, q13, q14, q15, q16, q17⟩ := msg_cells hg
  rw [hk] at q0
  go_upto_region 2 with (go_at_call 76; refine (wnumI_k w0.heap.size b _ _ 3 hW hBw (by omega) (by omega) (by (first | omega | exact Nat.zero_le _ | (simp only [List.length_append]; omega) | (simp only [List.nil_append]; omega) | (simp only [List.nil_append, List.length_append]; omega) | (simp only [List.length_append, str_len]; omega) | (simp only [List.length_append, List.nil_append, str_len]; omega)))).mono ?_; rintro e w2 ⟨rfl, hW, hb2, hk2⟩; have hg := hk2.row2 hg hgb (by decide); have hBw := Nat.le_trans hBw hk2.size; have hbel := hbel.trans hb2; have hkw := hkw.trans hk2; clear hb2 hk2 q0 q1 q2 q3 q4 q5 q6 q7 q8 q9 q10 q11 q12 q13 q14 q15 q16 q17; obtain ⟨q0, q1, q2, q3, q4, q5, q6, q7, q8, q9, q10, q11, q12, q13, q14, q15, q16, q17⟩ := msg_cells hg; rw [hk] at q0)
  go_upto_region 7 with (go_at_call 93; refine (pkWriteI w0.heap.size b _ _ m hW hBw hK (by (first | omega | exact Nat.zero_le _ | (simp only [List.length_append]; omega) | (simp only [List.nil_append]; omega) | (simp only [List.nil_append, List.length_append]; omega) | (simp only [List.length_append, str_len]; omega) | (simp only [List.length_append, List.nil_append, str_len]; omega)))).mono ?_; rintro e w2 ⟨rfl, hW, hb2, hk2⟩; have hg := hk2.row2 hg hgb (by decide); have hBw := Nat.le_trans hBw hk2.size; have hbel := hbel.trans hb2; have hkw := hkw.trans hk2; clear hb2 hk2 q0 q1 q2 q3 q4 q5 q6 q7 q8 q9 q10 q11 q12 q13 q14 q15 q16 q17; obtain ⟨q0, q1, q2, q3, q4, q5, q6, q7, q8, q9, q10, q11, q12, q13, q14, q15, q16, q17⟩ := msg_cells hg; rw [hk] at q0)
  go_upto_region 8 with (first | (go_at_call 53; refine (hasAck_any _ _).mono ?_; rintro e w2 ⟨rfl, hw2⟩; obtain rfl : _ = w2 := hw2; skip) | (go_at_call 94; refine (hasNext_any _ _).mono ?_; rintro e w2 ⟨rfl, hw2⟩; obtain rfl : _ = w2 := hw2; skip) | (go_at_call 96; refine (hasClose_any _ _).mono ?_; rintro e w2 ⟨rfl, hw2⟩; obtain rfl : _ = w2 := hw2; skip))
  go_upto_region 9 with (go_at_call 77; refine (wtext_k w0.heap.size b _ _ m.ack hW hBw (by omega) (by (first | omega | exact Nat.zero_le _ | (simp only [List.length_append]; omega) | (simp only [List.nil_append]; omega) | (simp only [List.nil_append, List.length_append]; omega) | (simp only [List.length_append, str_len]; omega) | (simp only [List.length_append, List.nil_append, str_len]; omega)))).mono ?_; rintro e w2 ⟨rfl, hW, hb2, hk2⟩; have hg := hk2.row2 hg hgb (by decide); have hBw := Nat.le_trans hBw hk2.size; have hbel := hbel.trans hb2; have hkw := hkw.trans hk2; clear hb2 hk2 q0 q1 q2 q3 q4 q5 q6 q7 q8 q9 q10 q11 q12 q13 q14 q15 q16 q17; obtain ⟨q0, q1, q2, q3, q4, q5, q6, q7, q8, q9, q10, q11, q12, q13, q14, q15, q16, q17⟩ := msg_cells hg; rw [hk] at q0)
  go_upto_region 11 with (first | (go_at_call 53; refine (hasAck_any _ _).mono ?_; rintro e w2 ⟨rfl, hw2⟩; obtain rfl : _ = w2 := hw2; skip) | (go_at_call 94; refine (hasNext_any _ _).mono ?_; rintro e w2 ⟨rfl, hw2⟩; obtain rfl : _ = w2 := hw2; skip) | (go_at_call 96; refine (hasClose_any _ _).mono ?_; rintro e w2 ⟨rfl, hw2⟩; obtain rfl : _ = w2 := hw2; skip))
  go_upto_region 12 with (go_at_call 76; refine (wnumI_k w0.heap.size b _ _ m.he hW hBw (by omega) (by omega) (by (first | omega | exact Nat.zero_le _ | (simp only [List.length_append]; omega) | (simp only [List.nil_append]; omega) | (simp only [List.nil_append, List.length_append]; omega) | (simp only [List.length_append, str_len]; omega) | (simp only [List.length_append, List.nil_append, str_len]; omega)))).mono ?_; rintro e w2 ⟨rfl, hW, hb2, hk2⟩; have hg := hk2.row2 hg hgb (by decide); have hBw := Nat.le_trans hBw hk2.size; have hbel := hbel.trans hb2; have hkw := hkw.trans hk2; clear hb2 hk2 q0 q1 q2 q3 q4 q5 q6 q7 q8 q9 q10 q11 q12 q13 q14 q15 q16 q17; obtain ⟨q0, q1, q2, q3, q4, q5, q6, q7, q8, q9, q10, q11, q12, q13, q14, q15, q16, q17⟩ := msg_cells hg; rw [hk] at q0)
  go_upto_region 13 with (go_at_call 95; refine (pfWrite_any b w0 _ _ m.pct m.pa m.pn m.pc m.pxs hm.p (hw0.trans hbel) hW hm.plen hP (by (first | omega | exact Nat.zero_le _ | (simp only [List.length_append]; omega) | (simp only [List.nil_append]; omega) | (simp only [List.nil_append, List.length_append]; omega) | (simp only [List.length_append, str_len]; omega) | (simp only [List.length_append, List.nil_append, str_len]; omega)))).mono ?_; rintro e w2 ⟨rfl, hW, hb2, hk2⟩; have hg := hk2.row2 hg hgb (by decide); have hBw := Nat.le_trans hBw hk2.size; have hbel := hbel.trans hb2; have hkw := hkw.trans hk2; clear hb2 hk2 q0 q1 q2 q3 q4 q5 q6 q7 q8 q9 q10 q11 q12 q13 q14 q15 q16 q17; obtain ⟨q0, q1, q2, q3, q4, q5, q6, q7, q8, q9, q10, q11, q12, q13, q14, q15, q16, q17⟩ := msg_cells hg; rw [hk] at q0)
  go_wp2_with (first | (go_at_call 53; refine (hasAck_any _ _).mono ?_; rintro e w2 ⟨rfl, hw2⟩; obtain rfl : _ = w2 := hw2; skip) | (go_at_call 94; refine (hasNext_any _ _).mono ?_; rintro e w2 ⟨rfl, hw2⟩; obtain rfl : _ = w2 := hw2; skip) | (go_at_call 96; refine (hasClose_any _ _).mono ?_; rintro e w2 ⟨rfl, hw2⟩; obtain rfl : _ = w2 := hw2; skip))
  go_returns
  refine ⟨rfl, ?_, hbel, hkw⟩
  rw [HF.out]
  have h9 := hW
  simp only [List.append_assoc, List.nil_append] at h9
  exact h9
set_option maxRecDepth 100000 in
set_option maxHeartbeats 4000000 in
theorem msgWrite_4 (b : Nat) (w0 w : World) (m : MsgV) (hk : m.kd = 4) (hm : m.ok w0) (hw0 : Below w0.heap.size w0 w) (hW : WAt w0.heap.size b w [] 0) (hR : restB m = true) :
    Calls Try.prog 49 #[.pointer (some ⟨b, 0, none⟩), .agg m.row] w fun e w' => e = .returned (.tuple #[]) ∧ WAt w0.heap.size b w' (msgBy m) 0 ∧ Below w0.heap.size w w' ∧ KW b w w' := by
  have HF : Hid (msgBy m = putL 4 ++ (pkBy m.sp m.sc m.dp m.dc m.sq m.da m.th m.ta ++ (putL m.nx ++ (putL m.he ++ pfBy m.pct m.pxs)))) := Lib.hid (by unfold msgBy; rw [if_neg (show ¬ m.kd = 1 by omega), if_neg (show ¬ m.kd = 2 by omega), if_neg (show ¬ m.kd = 3 by omega), if_pos hk])
  obtain ⟨ya, hK, y1, y2, y3, y4, hP, hC⟩ := rest_2 (by omega) hR
  obtain ⟨z1, z2, z3, _⟩ := mayK_boundsM hK
  have zpk := pkBy_len m.sp m.sc m.dp m.dc m.sq m.da m.th m.ta z1 z2 z3
  have zp := pfBy_len hP
  have zc := pfBy_len hC
  have z5 := putL_len' m.he
  have z6 := putL_len' m.nx
  have z7 := putL_len' (m.ack.size : Int)
  have z9 := putL_len' 4
  have hBw := hw0.size
  have hgb : w.heap.size ≠ b := by have := hW.lt; omega
  go_enter Try.func49, Try.ntmps49
  go_upto_region 1 with fail
  refine wp_nameE _ (fun W1 hX => ?_)
  have hg : W1.heap[w.heap.size]? = some (.cells m.row 34 (0, 0)) := by rw [hX]; exact heap_push _ _ _
  have hb1 : Below w.heap.size w W1 := by rw [hX]; exact Below.alloc (Below.refl _ _) (Nat.le_refl _) _
  clear hX
  have hkw : KW b w W1 := KW.of hb1
  have hbel : Below w0.heap.size w W1 := hb1.mono hBw
  have hW := hW.below hb1
  have hBw := Nat.le_trans hBw hb1.size
  clear hb1
  obtain ⟨q0, q1, q2, q3, q4, q5, q6, q7, q8, q9, q10, q11, q12, q13, q14, q15, q16, q17⟩ := msg_cells hg
  rw [hk] at q0
  go_upto_region 2 with (go_at_call 76; refine (wnumI_k w0.heap.size b _ _ 4 hW hBw (by omega) (by omega) (by (first | omega | exact Nat.zero_le _ | (simp only [List.length_append]; omega) | (simp only [List.nil_append]; omega) | (simp only [List.nil_append, List.length_append]; omega) | (simp only [List.length_append, str_len]; omega) | (simp only [List.length_append, List.nil_append, str_len]; omega)))).mono ?_; rintro e w2 ⟨rfl, hW, hb2, hk2⟩; have hg := hk2.row2 hg hgb (by decide); have hBw := Nat.le_trans hBw hk2.size; have hbel := hbel.trans hb2; have hkw := hkw.trans hk2; clear hb2 hk2 q0 q1 q2 q3 q4 q5 q6 q7 q8 q9 q10 q11 q12 q13 q14 q15 q16 q17; obtain ⟨q0, q1, q2, q3, q4, q5, q6, q7, q8, q9, q10, q11, q12, q13, q14, q15, q16, q17⟩ := msg_cells hg; rw [hk] at q0)
  go_upto_region 7 with (go_at_call 93; refine (pkWriteI w0.heap.size b _ _ m hW hBw hK (by (first | omega | exact Nat.zero_le _ | (simp only [List.length_append]; omega) | (simp only [List.nil_append]; omega) | (simp only [List.nil_append, List.length_append]; omega) | (simp only [List.length_append, str_len]; omega) | (simp only [List.length_append, List.nil_append, str_len]; omega)))).mono ?_; rintro e w2 ⟨rfl, hW, hb2, hk2⟩; have hg := hk2.row2 hg hgb (by decide); have hBw := Nat.le_trans hBw hk2.size; have hbel := hbel.trans hb2; have hkw := hkw.trans hk2; clear hb2 hk2 q0 q1 q2 q3 q4 q5 q6 q7 q8 q9 q10 q11 q12 q13 q14 q15 q16 q17; obtain ⟨q0, q1, q2, q3, q4, q5, q6, q7, q8, q9, q10, q11, q12, q13, q14, q15, q16, q17⟩ := msg_cells hg; rw [hk] at q0)
  go_upto_region 10 with (first | (go_at_call 53; refine (hasAck_any _ _).mono ?_; rintro e w2 ⟨rfl, hw2⟩; obtain rfl : _ = w2 := hw2; skip) | (go_at_call 94; refine (hasNext_any _ _).mono ?_; rintro e w2 ⟨rfl, hw2⟩; obtain rfl : _ = w2 := hw2; skip) | (go_at_call 96; refine (hasClose_any _ _).mono ?_; rintro e w2 ⟨rfl, hw2⟩; obtain rfl : _ = w2 := hw2; skip))
  go_upto_region 11 with (go_at_call 76; refine (wnumI_k w0.heap.size b _ _ m.nx hW hBw (by omega) (by omega) (by (first | omega | exact Nat.zero_le _ | (simp only [List.length_append]; omega) | (simp only [List.nil_append]; omega) | (simp only [List.nil_append, List.length_append]; omega) | (simp only [List.length_append, str_len]; omega) | (simp only [List.length_append, List.nil_append, str_len]; omega)))).mono ?_; rintro e w2 ⟨rfl, hW, hb2, hk2⟩; have hg := hk2.row2 hg hgb (by decide); have hBw := Nat.le_trans hBw hk2.size; have hbel := hbel.trans hb2; have hkw := hkw.trans hk2; clear hb2 hk2 q0 q1 q2 q3 q4 q5 q6 q7 q8 q9 q10 q11 q12 q13 q14 q15 q16 q17; obtain ⟨q0, q1, q2, q3, q4, q5, q6, q7, q8, q9, q10, q11, q12, q13, q14, q15, q16, q17⟩ := msg_cells hg; rw [hk] at q0)
  go_upto_region 12 with (go_at_call 76; refine (wnumI_k w0.heap.size b _ _ m.he hW hBw (by omega) (by omega) (by (first | omega | exact Nat.zero_le _ | (simp only [List.length_append]; omega) | (simp only [List.nil_append]; omega) | (simp only [List.nil_append, List.length_append]; omega) | (simp only [List.length_append, str_len]; omega) | (simp only [List.length_append, List.nil_append, str_len]; omega)))).mono ?_; rintro e w2 ⟨rfl, hW, hb2, hk2⟩; have hg := hk2.row2 hg hgb (by decide); have hBw := Nat.le_trans hBw hk2.size; have hbel := hbel.trans hb2; have hkw := hkw.trans hk2; clear hb2 hk2 q0 q1 q2 q3 q4 q5 q6 q7 q8 q9 q10 q11 q12 q13 q14 q15 q16 q17; obtain ⟨q0, q1, q2, q3, q4, q5, q6, q7, q8, q9, q10, q11, q12, q13, q14, q15, q16, q17⟩ := msg_cells hg; rw [hk] at q0)
  go_upto_region 13 with (go_at_call 95; refine (pfWrite_any b w0 _ _ m.pct m.pa m.pn m.pc m.pxs hm.p (hw0.trans hbel) hW hm.plen hP (by (first | omega | exact Nat.zero_le _ | (simp only [List.length_append]; omega) | (simp only [List.nil_append]; omega) | (simp only [List.nil_append, List.length_append]; omega) | (simp only [List.length_append, str_len]; omega) | (simp only [List.length_append, List.nil_append, str_len]; omega)))).mono ?_; rintro e w2 ⟨rfl, hW, hb2, hk2⟩; have hg := hk2.row2 hg hgb (by decide); have hBw := Nat.le_trans hBw hk2.size; have hbel := hbel.trans hb2; have hkw := hkw.trans hk2; clear hb2 hk2 q0 q1 q2 q3 q4 q5 q6 q7 q8 q9 q10 q11 q12 q13 q14 q15 q16 q17; obtain ⟨q0, q1, q2, q3, q4, q5, q6, q7, q8, q9, q10, q11, q12, q13, q14, q15, q16, q17⟩ := msg_cells hg; rw [hk] at q0)
  go_wp2_with (first | (go_at_call 53; refine (hasAck_any _ _).mono ?_; rintro e w2 ⟨rfl, hw2⟩; obtain rfl : _ = w2 := hw2; skip) | (go_at_call 94; refine (hasNext_any _ _).mono ?_; rintro e w2 ⟨rfl, hw2⟩; obtain rfl : _ = w2 := hw2; skip) | (go_at_call 96; refine (hasClose_any _ _).mono ?_; rintro e w2 ⟨rfl, hw2⟩; obtain rfl : _ = w2 := hw2; skip))
  go_returns
  refine ⟨rfl, ?_, hbel, hkw⟩
  rw [HF.out]
  have h9 := hW
  simp only [List.append_assoc, List.nil_append] at h9
  exact h9
set_option maxRecDepth 100000 in
set_option maxHeartbeats 4000000 in
theorem msgWrite_5 (b : Nat) (w0 w : World) (m : MsgV) (hk : m.kd = 5) (hm : m.ok w0) (hw0 : Below w0.heap.size w0 w) (hW : WAt w0.heap.size b w [] 0) (hR : restB m = true) :
    Calls Try.prog 49 #[.pointer (some ⟨b, 0, none⟩), .agg m.row] w fun e w' => e = .returned (.tuple #[]) ∧ WAt w0.heap.size b w' (msgBy m) 0 ∧ Below w0.heap.size w w' ∧ KW b w w' := by
  have HF : Hid (msgBy m = putL 5 ++ (pkBy m.sp m.sc m.dp m.dc m.sq m.da m.th m.ta ++ (putL m.nx ++ (putL m.he ++ (pfBy m.pct m.pxs ++ pfBy m.cct m.cxs))))) := Lib.hid (by unfold msgBy; rw [if_neg (show ¬ m.kd = 1 by omega), if_neg (show ¬ m.kd = 2 by omega), if_neg (show ¬ m.kd = 3 by omega), if_neg (show ¬ m.kd = 4 by omega)])
  obtain ⟨ya, hK, y1, y2, y3, y4, hP, hC⟩ := rest_2 (by omega) hR
  obtain ⟨z1, z2, z3, _⟩ := mayK_boundsM hK
  have zpk := pkBy_len m.sp m.sc m.dp m.dc m.sq m.da m.th m.ta z1 z2 z3
  have zp := pfBy_len hP
  have zc := pfBy_len hC
  have z5 := putL_len' m.he
  have z6 := putL_len' m.nx
  have z7 := putL_len' (m.ack.size : Int)
  have z9 := putL_len' 5
  have hBw := hw0.size
  have hgb : w.heap.size ≠ b := by have := hW.lt; omega
  go_enter Try.func49, Try.ntmps49
  go_upto_region 1 with fail
  refine wp_nameE _ (fun W1 hX => ?_)
  have hg : W1.heap[w.heap.size]? = some (.cells m.row 34 (0, 0)) := by rw [hX]; exact heap_push _ _ _
  have hb1 : Below w.heap.size w W1 := by rw [hX]; exact Below.alloc (Below.refl _ _) (Nat.le_refl _) _
  clear hX
  have hkw : KW b w W1 := KW.of hb1
  have hbel : Below w0.heap.size w W1 := hb1.mono hBw
  have hW := hW.below hb1
  have hBw := Nat.le_trans hBw hb1.size
  clear hb1
  obtain ⟨q0, q1, q2, q3, q4, q5, q6, q7, q8, q9, q10, q11, q12, q13, q14, q15, q16, q17⟩ := msg_cells hg
  rw [hk] at q0
  go_upto_region 2 with (go_at_call 76; refine (wnumI_k w0.heap.size b _ _ 5 hW hBw (by omega) (by omega) (by (first | omega | exact Nat.zero_le _ | (simp only [List.length_append]; omega) | (simp only [List.nil_append]; omega) | (simp only [List.nil_append, List.length_append]; omega) | (simp only [List.length_append, str_len]; omega) | (simp only [List.length_append, List.nil_append, str_len]; omega)))).mono ?_; rintro e w2 ⟨rfl, hW, hb2, hk2⟩; have hg := hk2.row2 hg hgb (by decide); have hBw := Nat.le_trans hBw hk2.size; have hbel := hbel.trans hb2; have hkw := hkw.trans hk2; clear hb2 hk2 q0 q1 q2 q3 q4 q5 q6 q7 q8 q9 q10 q11 q12 q13 q14 q15 q16 q17; obtain ⟨q0, q1, q2, q3, q4, q5, q6, q7, q8, q9, q10, q11, q12, q13, q14, q15, q16, q17⟩ := msg_cells hg; rw [hk] at q0)
  go_upto_region 7 with (go_at_call 93; refine (pkWriteI w0.heap.size b _ _ m hW hBw hK (by (first | omega | exact Nat.zero_le _ | (simp only [List.length_append]; omega) | (simp only [List.nil_append]; omega) | (simp only [List.nil_append, List.length_append]; omega) | (simp only [List.length_append, str_len]; omega) | (simp only [List.length_append, List.nil_append, str_len]; omega)))).mono ?_; rintro e w2 ⟨rfl, hW, hb2, hk2⟩; have hg := hk2.row2 hg hgb (by decide); have hBw := Nat.le_trans hBw hk2.size; have hbel := hbel.trans hb2; have hkw := hkw.trans hk2; clear hb2 hk2 q0 q1 q2 q3 q4 q5 q6 q7 q8 q9 q10 q11 q12 q13 q14 q15 q16 q17; obtain ⟨q0, q1, q2, q3, q4, q5, q6, q7, q8, q9, q10, q11, q12, q13, q14, q15, q16, q17⟩ := msg_cells hg; rw [hk] at q0)
  go_upto_region 10 with (first | (go_at_call 53; refine (hasAck_any _ _).mono ?_; rintro e w2 ⟨rfl, hw2⟩; obtain rfl : _ = w2 := hw2; skip) | (go_at_call 94; refine (hasNext_any _ _).mono ?_; rintro e w2 ⟨rfl, hw2⟩; obtain rfl : _ = w2 := hw2; skip) | (go_at_call 96; refine (hasClose_any _ _).mono ?_; rintro e w2 ⟨rfl, hw2⟩; obtain rfl : _ = w2 := hw2; skip))
  go_upto_region 11 with (go_at_call 76; refine (wnumI_k w0.heap.size b _ _ m.nx hW hBw (by omega) (by omega) (by (first | omega | exact Nat.zero_le _ | (simp only [List.length_append]; omega) | (simp only [List.nil_append]; omega) | (simp only [List.nil_append, List.length_append]; omega) | (simp only [List.length_append, str_len]; omega) | (simp only [List.length_append, List.nil_append, str_len]; omega)))).mono ?_; rintro e w2 ⟨rfl, hW, hb2, hk2⟩; have hg := hk2.row2 hg hgb (by decide); have hBw := Nat.le_trans hBw hk2.size; have hbel := hbel.trans hb2; have hkw := hkw.trans hk2; clear hb2 hk2 q0 q1 q2 q3 q4 q5 q6 q7 q8 q9 q10 q11 q12 q13 q14 q15 q16 q17; obtain ⟨q0, q1, q2, q3, q4, q5, q6, q7, q8, q9, q10, q11, q12, q13, q14, q15, q16, q17⟩ := msg_cells hg; rw [hk] at q0)
  go_upto_region 12 with (go_at_call 76; refine (wnumI_k w0.heap.size b _ _ m.he hW hBw (by omega) (by omega) (by (first | omega | exact Nat.zero_le _ | (simp only [List.length_append]; omega) | (simp only [List.nil_append]; omega) | (simp only [List.nil_append, List.length_append]; omega) | (simp only [List.length_append, str_len]; omega) | (simp only [List.length_append, List.nil_append, str_len]; omega)))).mono ?_; rintro e w2 ⟨rfl, hW, hb2, hk2⟩; have hg := hk2.row2 hg hgb (by decide); have hBw := Nat.le_trans hBw hk2.size; have hbel := hbel.trans hb2; have hkw := hkw.trans hk2; clear hb2 hk2 q0 q1 q2 q3 q4 q5 q6 q7 q8 q9 q10 q11 q12 q13 q14 q15 q16 q17; obtain ⟨q0, q1, q2, q3, q4, q5, q6, q7, q8, q9, q10, q11, q12, q13, q14, q15, q16, q17⟩ := msg_cells hg; rw [hk] at q0)
  go_upto_region 13 with (go_at_call 95; refine (pfWrite_any b w0 _ _ m.pct m.pa m.pn m.pc m.pxs hm.p (hw0.trans hbel) hW hm.plen hP (by (first | omega | exact Nat.zero_le _ | (simp only [List.length_append]; omega) | (simp only [List.nil_append]; omega) | (simp only [List.nil_append, List.length_append]; omega) | (simp only [List.length_append, str_len]; omega) | (simp only [List.length_append, List.nil_append, str_len]; omega)))).mono ?_; rintro e w2 ⟨rfl, hW, hb2, hk2⟩; have hg := hk2.row2 hg hgb (by decide); have hBw := Nat.le_trans hBw hk2.size; have hbel := hbel.trans hb2; have hkw := hkw.trans hk2; clear hb2 hk2 q0 q1 q2 q3 q4 q5 q6 q7 q8 q9 q10 q11 q12 q13 q14 q15 q16 q17; obtain ⟨q0, q1, q2, q3, q4, q5, q6, q7, q8, q9, q10, q11, q12, q13, q14, q15, q16, q17⟩ := msg_cells hg; rw [hk] at q0)
  go_upto_region 14 with (first | (go_at_call 53; refine (hasAck_any _ _).mono ?_; rintro e w2 ⟨rfl, hw2⟩; obtain rfl : _ = w2 := hw2; skip) | (go_at_call 94; refine (hasNext_any _ _).mono ?_; rintro e w2 ⟨rfl, hw2⟩; obtain rfl : _ = w2 := hw2; skip) | (go_at_call 96; refine (hasClose_any _ _).mono ?_; rintro e w2 ⟨rfl, hw2⟩; obtain rfl : _ = w2 := hw2; skip))
  go_wp2_with (go_at_call 95; refine (pfWrite_any b w0 _ _ m.cct m.ca m.cn m.cc m.cxs hm.c (hw0.trans hbel) hW hm.clen hC (by (first | omega | exact Nat.zero_le _ | (simp only [List.length_append]; omega) | (simp only [List.nil_append]; omega) | (simp only [List.nil_append, List.length_append]; omega) | (simp only [List.length_append, str_len]; omega) | (simp only [List.length_append, List.nil_append, str_len]; omega)))).mono ?_; rintro e w2 ⟨rfl, hW, hb2, hk2⟩; have hg := hk2.row2 hg hgb (by decide); have hBw := Nat.le_trans hBw hk2.size; have hbel := hbel.trans hb2; have hkw := hkw.trans hk2; clear hb2 hk2 q0 q1 q2 q3 q4 q5 q6 q7 q8 q9 q10 q11 q12 q13 q14 q15 q16 q17; obtain ⟨q0, q1, q2, q3, q4, q5, q6, q7, q8, q9, q10, q11, q12, q13, q14, q15, q16, q17⟩ := msg_cells hg; rw [hk] at q0)
  go_returns
  refine ⟨rfl, ?_, hbel, hkw⟩
  rw [HF.out]
  have h9 := hW
  simp only [List.append_assoc, List.nil_append] at h9
  exact h9
set_option maxRecDepth 100000 in
set_option maxHeartbeats 4000000 in
theorem msgWrite_any (b : Nat) (w0 w : World) (m : MsgV) (hm : m.ok w0) (hw0 : Below w0.heap.size w0 w) (hW : WAt w0.heap.size b w [] 0) (hM : mayMsgB m = true) :
    Calls Try.prog 49 #[.pointer (some ⟨b, 0, none⟩), .agg m.row] w fun e w' => e = .returned (.tuple #[]) ∧ WAt w0.heap.size b w' (msgBy m) 0 ∧ Below w0.heap.size w w' ∧ KW b w w' := by
  obtain ⟨h1, h2, h3⟩ := may_kd hM
  by_cases k1 : m.kd = 1
  · exact msgWrite_1 b w0 w m k1 hm hw0 hW h3
  by_cases k2 : m.kd = 2
  · exact msgWrite_2 b w0 w m k2 hm hw0 hW h3
  by_cases k3 : m.kd = 3
  · exact msgWrite_3 b w0 w m k3 hm hw0 hW h3
  by_cases k4 : m.kd = 4
  · exact msgWrite_4 b w0 w m k4 hm hw0 hW h3
  exact msgWrite_5 b w0 w m (by omega) hm hw0 hW h3
end Go.Proofs.Ythipnkbfdkmhaaa
namespace Go.Proofs.Ythipnkbfdkmhaaa
open Go.RowKit
attribute [local go_sem] strV
set_option linter.unusedVariables false

def encMsg (m : MsgV) : Value := if mayMsgB m then .tuple #[.string ⟨(msgBy m).toArray⟩, .int .i64 0] else .tuple #[.string ⟨#[]⟩, .int .i64 1]
def msgS (m : MsgV) : ByteArray := if mayMsgB m then ⟨(msgBy m).toArray⟩ else ⟨#[]⟩
set_option maxRecDepth 100000 in
set_option maxHeartbeats 2000000 in
theorem msgEncode_any (m : MsgV) (w : World) (hm : m.ok w) :
    Calls Try.prog 16 #[.agg m.row] w fun e w' => e = .returned (encMsg m) ∧ Below w.heap.size w w' := by
  have CM := fun W (hb : Below w.heap.size w W) => msgMay_any m W (hm.below hb)
  cases k : mayMsgB m
  case false =>
    rw [show encMsg m = .tuple #[.string ⟨#[]⟩, .int .i64 1] by unfold encMsg; rw [k]; rfl]
    simp only [k] at CM
    go_enter Try.func16, Try.ntmps16
    go_upto_region 1 with fail
    refine wp_nameE _ (fun W1 hX => ?_)
    have hg : W1.heap[w.heap.size]? = some (.cells m.row 34 (0, 0)) := by rw [hX]; exact heap_push _ _ _
    have hbel : Below w.heap.size w W1 := by rw [hX]; exact Below.alloc (Below.refl _ _) (Nat.le_refl _) _
    clear hX
    have hgl : w.heap.size < W1.heap.size := (Array.getElem?_eq_some_iff.1 hg).1
    go_wp2_with (first | (refine wpList_load_mid rfl 34 (.tmp 1) rfl w.heap.size 0 rfl m.row.toList _ (rangeAt_row5 hg) Try.underlying34 rfl (msg_info _) ?_; rw [Array.toArray_toList]) | (go_at_call 17; refine (CM _ hbel).mono ?_; rintro e w2 ⟨rfl, hb⟩; have hg := cells_of hg hb hgl; have hgl := Nat.lt_of_lt_of_le hgl hb.size; have hbel := hbel.trans (hb.mono hbel.size); clear hb))
    go_ret2
    exact ⟨rfl, hbel⟩
  rw [show encMsg m = .tuple #[.string ⟨(msgBy m).toArray⟩, .int .i64 0] by unfold encMsg; rw [k]; rfl]
  simp only [k] at CM
  obtain ⟨L, hL⟩ : ∃ L, msgBy m = L := ⟨_, rfl⟩
  rw [hL]
  have HL := Lib.hid hL
  clear hL
  go_enter Try.func16, Try.ntmps16
  go_upto_region 1 with fail
  refine wp_nameE _ (fun W1 hX => ?_)
  have hg : W1.heap[w.heap.size]? = some (.cells m.row 34 (0, 0)) := by rw [hX]; exact heap_push _ _ _
  have hbel : Below w.heap.size w W1 := by rw [hX]; exact Below.alloc (Below.refl _ _) (Nat.le_refl _) _
  clear hX
  have hgl : w.heap.size < W1.heap.size := (Array.getElem?_eq_some_iff.1 hg).1
  go_upto_region 3 with (first | (refine wpList_load_mid rfl 34 (.tmp 1) rfl w.heap.size 0 rfl m.row.toList _ (rangeAt_row5 hg) Try.underlying34 rfl (msg_info _) ?_; rw [Array.toArray_toList]) | (go_at_call 17; refine (CM _ hbel).mono ?_; rintro e w2 ⟨rfl, hb⟩; have hg := cells_of hg hb hgl; have hgl := Nat.lt_of_lt_of_le hgl hb.size; have hbel := hbel.trans (hb.mono hbel.size); clear hb))
  refine wp_nameE _ (fun W2 hX => ?_)
  have hg2 : W2.heap[w.heap.size]? = some (.cells m.row 34 (0, 0)) := by rw [hX]; exact hg
  have hbel2 : Below w.heap.size w W2 := by rw [hX]; exact hbel
  clear hX hg hgl hbel CM
  have hgl : w.heap.size < W2.heap.size := (Array.getElem?_eq_some_iff.1 hg2).1
  have hwB := hbel2.size
  have hm2 := hm.below hbel2
  go_upto_region 4 with (go_at_call 48; refine (wnew_any W2.heap.size _ (Nat.le_refl _)).mono ?_; rintro e w3 ⟨rfl, hW, hb2⟩; have hbel := hbel2.trans (hb2.mono hwB); have hBw := hb2.size; have hg := cells_of hg2 hb2 hgl)
  have CW := fun W (h1 : Below W2.heap.size W2 W) (h2 : WAt W2.heap.size W2.heap.size W [] 0) => msgWrite_any W2.heap.size W2 W m hm2 h1 h2 k
  go_upto_region 5 with (first | (refine wpList_load_mid rfl 34 (.tmp 1) rfl w.heap.size 0 rfl m.row.toList _ (rangeAt_row5 hg) Try.underlying34 rfl (msg_info _) ?_; rw [Array.toArray_toList]) | (go_at_call 49; refine (CW _ hb2 hW).mono ?_; rintro e w4 ⟨rfl, hW, hb3, hk3⟩; have hBw := Nat.le_trans hBw hk3.size; have hbel := hbel.trans (hb3.mono hwB)))
  rw [HL.out] at hW
  go_wp2_with (go_at_call 50; refine (wbytes_rd W2.heap.size _ _ _ hW.rd hBw).mono ?_; rintro e w9 ⟨rfl, hW9, hb9⟩; have hbel := hbel.trans (hb9.mono hwB))
  go_ret2
  exact ⟨rfl, hbel⟩
set_option maxRecDepth 100000 in
set_option maxHeartbeats 2000000 in
theorem msgSize_any (m : MsgV) (w : World) (hm : m.ok w) :
    Calls Try.prog 26 #[.agg m.row] w fun e w' => e = .returned (.int .i64 ((msgS m).size : Nat)) ∧ Below w.heap.size w w' := by
  obtain ⟨er, her⟩ : ∃ x : Int, encMsg m = .tuple #[.string (msgS m), .int .i64 x] := by
    unfold encMsg msgS
    cases mayMsgB m
    · exact ⟨1, rfl⟩
    · exact ⟨0, rfl⟩
  have CE := fun W (hb : Below w.heap.size w W) => msgEncode_any m W (hm.below hb)
  simp only [her] at CE
  obtain ⟨s, hs⟩ : ∃ s, msgS m = s := ⟨_, rfl⟩
  simp only [hs] at CE ⊢
  clear her hs
  go_enter Try.func26, Try.ntmps26
  go_upto_region 1 with fail
  refine wp_nameE _ (fun W1 hX => ?_)
  have hg : W1.heap[w.heap.size]? = some (.cells m.row 34 (0, 0)) := by rw [hX]; exact heap_push _ _ _
  have hbel : Below w.heap.size w W1 := by rw [hX]; exact Below.alloc (Below.refl _ _) (Nat.le_refl _) _
  clear hX
  have hgl : w.heap.size < W1.heap.size := (Array.getElem?_eq_some_iff.1 hg).1
  go_wp2_with (first | (refine wpList_load_mid rfl 34 (.tmp 1) rfl w.heap.size 0 rfl m.row.toList _ (rangeAt_row5 hg) Try.underlying34 rfl (msg_info _) ?_; rw [Array.toArray_toList]) | (go_at_call 16; refine (CE _ hbel).mono ?_; rintro e w2 ⟨rfl, hb⟩; have hbel := hbel.trans (hb.mono hbel.size)))
  go_ret
  exact ⟨by first | rfl | simp, hbel⟩
end Go.Proofs.Ythipnkbfdkmhaaa
namespace Go.Proofs.Ythipnkbfdkmhaaa
open Go.RowKit
attribute [local go_sem] strV
set_option linter.unusedVariables false
theorem RAt.setRow {b g : Nat} {w : World} {s : ByteArray} {A E : Int} (h : RAt b w s A E) (hne : g ≠ b) (cs : Array Value) : RAt b (w.setRow g cs) s A E := by
  unfold RAt at h ⊢
  rw [setRow_other w g b cs (Ne.symm hne)]; exact h
end Go.Proofs.Ythipnkbfdkmhaaa
namespace Go.Proofs.Ythipnkbfdkmhaaa
open Go.RowKit
attribute [local go_sem] strV
set_option linter.unusedVariables false
theorem row_oth' (w : World) (g k j : Nat) (v : Value) (hne : j ≠ g) : (w.setCell ⟨g, k, none⟩ v).heap[j]? = w.heap[j]? := by
  show (w.heap.modify g _)[j]? = _
  rw [Array.getElem?_modify, if_neg (Ne.symm hne)]
end Go.Proofs.Ythipnkbfdkmhaaa
namespace Go.Proofs.Ythipnkbfdkmhaaa
open Go.RowKit
set_option linter.unusedVariables false
/-- On an error the value is z. -/
def fixP {α : Type} (P : ByteArray → Int → Int → α × Int × Int) (z : α) (s : ByteArray) (a e : Int) : α × Int × Int := (if (P s a e).2.2 = 0 then (P s a e).1 else z, (P s a e).2.1, (P s a e).2.2)
theorem Codec.fix {α : Type} {P : ByteArray → Int → Int → α × Int × Int} {enc : α → List UInt8} {ok : α → Prop} (h : Codec P enc ok) (z : α) : Codec (fixP P z) enc ok := by
  refine ⟨fun {s A B x} hx hs => ?_, fun {s A x k} hx hs hk => ?_, fun {s a e} he => ?_, fun {s i a' x} hi' hh => ?_⟩
  · unfold fixP; rw [h.good hx hs]; rfl
  · exact h.cut hx hs hk
  · exact h.stay he
  · obtain ⟨⟨x1, a1, e1⟩, hx⟩ : ∃ t, P s i 0 = t := ⟨_, rfl⟩
    unfold fixP at hh
    simp only [hx, Prod.mk.injEq] at hh
    obtain ⟨q1, rfl, rfl⟩ := hh
    rw [if_pos rfl] at q1
    subst q1
    exact h.back hi' hx
def leafDB (x : LeafD) : List UInt8 := textB x.key ++ (textB x.val ++ (putL x.idx ++ (putL (x.path.length : Int) ++ x.path.flatMap (·.1))))
structure PfD where
  ct : Int
  xs : List LeafD
def pfDB (p : PfD) : List UInt8 := putL p.ct ++ (putL (p.xs.length : Int) ++ p.xs.flatMap leafDB)
abbrev PkT := (ByteArray × Int) × (ByteArray × Int) × Int × ByteArray × Int × Int
def pkB (p : PkT) : List UInt8 := (textB p.1.1 ++ putL p.1.2) ++ ((textB p.2.1.1 ++ putL p.2.1.2) ++ (putL p.2.2.1 ++ (textB p.2.2.2.1 ++ (putL p.2.2.2.2.1 ++ putL p.2.2.2.2.2))))
theorem pkB_eq (p : PkT) : pkB p = pkBy p.1.1 p.1.2 p.2.1.1 p.2.1.2 p.2.2.1 p.2.2.2.1 p.2.2.2.2.1 p.2.2.2.2.2 := by
  unfold pkB pkBy endBy textB
  simp only [List.append_assoc]
/-- A message without addresses. -/
structure MsgD where
  kd : Int
  hh : Int
  ht : Int
  rt : H32
  pk : PkT
  ack : ByteArray
  nx : Int
  he : Int
  p : PfD
  c : PfD
def PkT.zero : PkT := ((⟨#[]⟩, 0), (⟨#[]⟩, 0), 0, ⟨#[]⟩, 0, 0)
def PfD.zero : PfD := ⟨0, []⟩
def MsgD.zero (kd : Int) : MsgD := ⟨kd, 0, 0, zeroM, PkT.zero, ⟨#[]⟩, 0, 0, PfD.zero, PfD.zero⟩
def MsgV.d (m : MsgV) : MsgD := ⟨m.kd, m.hh, m.ht, m.rt, ((m.sp, m.sc), (m.dp, m.dc), m.sq, m.da, m.th, m.ta), m.ack, m.nx, m.he, ⟨m.pct, m.pxs.map LeafV.d⟩, ⟨m.cct, m.cxs.map LeafV.d⟩⟩
def LeafD.v (x : LeafD) : LeafV := ⟨x.key, x.val, x.idx, none, x.path.length, x.path.length, x.path⟩
def MsgD.v (m : MsgD) : MsgV := ⟨m.kd, m.hh, m.ht, m.rt, m.pk.1.1, m.pk.1.2, m.pk.2.1.1, m.pk.2.1.2, m.pk.2.2.1, m.pk.2.2.2.1, m.pk.2.2.2.2.1, m.pk.2.2.2.2.2, m.ack, m.nx, m.he, m.p.ct, none, m.p.xs.length, m.p.xs.length, m.p.xs.map LeafD.v, m.c.ct, none, m.c.xs.length, m.c.xs.length, m.c.xs.map LeafD.v⟩
def bodyBy (kd : Int) (m : MsgD) : List UInt8 :=
  if kd = 1 then putL m.hh ++ (putL m.ht ++ m.rt.1)
  else if kd = 3 then pkB m.pk ++ (textB m.ack ++ (putL m.he ++ pfDB m.p))
  else if kd = 4 then pkB m.pk ++ (putL m.nx ++ (putL m.he ++ pfDB m.p))
  else if kd = 5 then pkB m.pk ++ (putL m.nx ++ (putL m.he ++ (pfDB m.p ++ pfDB m.c)))
  else pkB m.pk ++ (putL m.he ++ pfDB m.p)
def msgDB (m : MsgD) : List UInt8 := putL m.kd ++ bodyBy m.kd m
theorem leafBy_d (x : LeafV) : leafBy x = leafDB x.d := by
  unfold leafBy leafDB textB LeafV.d
  simp only [List.append_assoc]
theorem flat_d : ∀ l : List LeafV, l.flatMap leafBy = (l.map LeafV.d).flatMap leafDB
  | [] => rfl
  | x :: l => by rw [List.flatMap_cons, List.map_cons, List.flatMap_cons, leafBy_d, flat_d l]
theorem pfBy_d (ct : Int) (l : List LeafV) : pfBy ct l = pfDB ⟨ct, l.map LeafV.d⟩ := by
  unfold pfBy pfDB
  simp only [List.length_map, flat_d, List.append_assoc]
theorem msgBy_d {m : MsgV} (h1 : 1 ≤ m.kd) (h5 : m.kd ≤ 5) : msgBy m = msgDB m.d := by
  unfold msgBy msgDB bodyBy
  rw [show m.d.kd = m.kd from rfl]
  by_cases k1 : m.kd = 1
  · rw [if_pos k1, if_pos k1, k1]; rfl
  rw [if_neg k1, if_neg k1]
  by_cases k2 : m.kd = 2
  · rw [if_pos k2, if_neg (by omega), if_neg (by omega), if_neg (by omega), k2, pfBy_d]; unfold MsgV.d; rw [pkB_eq]
  rw [if_neg k2]
  by_cases k3 : m.kd = 3
  · rw [if_pos k3, if_pos k3, k3, pfBy_d]; unfold MsgV.d; rw [pkB_eq]; unfold textB; simp only [List.append_assoc]
  rw [if_neg k3, if_neg k3]
  by_cases k4 : m.kd = 4
  · rw [if_pos k4, if_pos k4, k4, pfBy_d]; unfold MsgV.d; rw [pkB_eq]
  rw [if_neg k4, if_neg k4, if_pos (by omega), show m.kd = 5 by omega, pfBy_d, pfBy_d]; unfold MsgV.d; rw [pkB_eq]
end Go.Proofs.Ythipnkbfdkmhaaa
