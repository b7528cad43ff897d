/- Events in bytes: Encode. -/
import Derived.Test.YtcbacchelabljaaEvM
import Derived.Test.YtcbacchelabljaaEvW
import Derived.Test.YtcbacchelabljaaGD
import Derived.Deep.MidRow
import Derived.Deep.Cut
import Derived.WalkKit
import Derived.ProofKit
import Derived.Handy
import Derived.Below
import Derived.BigQuiet
import Derived.Lib.Hide
import Derived.IntWalk
import Derived.Outline
import Derived.WalkLawsBesides
import Derived.WalkSpells
namespace Go.Proofs.Ytcbacchelabljaa
open Go.RowKit
attribute [local go_sem] strV
set_option linter.unusedVariables false
def encE (e : Ev) : List UInt8 := putL e.kd ++ ((bif hasP e.kd then pkBy e.sp e.sc e.dp e.dc e.sq e.da e.th e.ta else []) ++ ((bif e.kd == 3 then putL (e.ack.size : Int) ++ e.ack.data.toList else []) ++ ((bif e.kd == 6 then endBy e.ep e.ec else []) ++ (bif e.kd == 7 then putL e.ht else []))))
def encEv (e : Ev) : Value := bif mayEv e then .tuple #[.string ⟨(encE e).toArray⟩, .int .i64 0] else .tuple #[.string ⟨#[]⟩, .int .i64 1]
theorem mayK_bounds {sp : ByteArray} {sc : Int} {dp : ByteArray} {dc sq : Int} {da : ByteArray} {th ta : Int} (h : mayK sp sc dp dc sq da th ta = true) :
    sp.size ≤ 12 ∧ dp.size ≤ 12 ∧ da.size ≤ 200 ∧ 0 ≤ sc ∧ sc ≤ 999 ∧ 0 ≤ dc ∧ dc ≤ 999 ∧ 1 ≤ sq ∧ sq ≤ 1099511627776 ∧ 0 ≤ th ∧ th ≤ 1099511627776 ∧ 0 ≤ ta ∧ ta ≤ 1099511627776 := by
  unfold mayK at h
  simp only [Bool.and_eq_true, decide_eq_true_eq] at h
  obtain ⟨⟨⟨⟨⟨⟨⟨⟨h1, h2⟩, h3⟩, h4⟩, h5⟩, h6⟩, h7⟩, h8⟩, h9⟩ := h
  have a := mayE_bounds h1
  have b := mayE_bounds h2
  omega
theorem wnum_int (B b : Nat) (w : World) (l : List UInt8) (v : Int) (h : WAt B b w l 0) (hBw : B ≤ w.heap.size) (h0 : 0 ≤ v) (h1 : v ≤ 72057594037927935) (hlen : l.length ≤ 1000000) :
    Calls Try.prog 23 #[.pointer (some ⟨b, 0, none⟩), .int .i64 v] w fun e w' => e = .returned (.tuple #[]) ∧ WAt B b w' (l ++ putL v) 0 ∧ Below B w w' := by
  obtain ⟨x, rfl⟩ : ∃ x : Nat, v = x := ⟨v.toNat, by omega⟩
  exact wnum_ok B b w l x h hBw (by omega) hlen
set_option maxRecDepth 100000 in
set_option maxHeartbeats 6400000 in
theorem encodeEv_any (kd : Int) (sp : ByteArray) (sc : Int) (dp : ByteArray) (dc : Int) (sq : Int) (da : ByteArray) (th : Int) (ta : Int) (ack : ByteArray) (ep : ByteArray) (ec : Int) (ht : Int) (w : World) (h1 : sp.size ≤ maxLen) (h2 : dp.size ≤ maxLen) (h3 : ep.size ≤ maxLen) :
    Calls Try.prog 24 #[.agg #[.int .i64 kd, .string sp, .int .i64 sc, .string dp, .int .i64 dc, .int .i64 sq, .string da, .int .i64 th, .int .i64 ta, .string ack, .string ep, .int .i64 ec, .int .i64 ht]] w fun e w' => e = .returned (encEv ⟨kd, sp, sc, dp, dc, sq, da, th, ta, ack, ep, ec, ht⟩) ∧ Below w.heap.size w w' := by
  have CM := fun W => mayEv_any kd sp sc dp dc sq da th ta ack ep ec ht W h1 h2 h3
  cases hM : mayEv ⟨kd, sp, sc, dp, dc, sq, da, th, ta, ack, ep, ec, ht⟩
  · have hR : encEv ⟨kd, sp, sc, dp, dc, sq, da, th, ta, ack, ep, ec, ht⟩ = .tuple #[.string ⟨#[]⟩, .int .i64 1] := by unfold encEv; rw [hM]; rfl
    rw [hR]
    simp only [hM] at CM
    clear hR hM
    go_enter Try.func24, Try.ntmps24
    go_wp2_with (go_at_call 43; refine (CM _).mono ?_; rintro e w1 ⟨rfl, hb1⟩; obtain ⟨hx1, _⟩ := bcell hb1; have hba : Below w.heap.size w w1 := by (repeat (first | assumption | exact Below.refl _ _ | refine bch ?_ (by assumption) | refine Below.alloc ?_ (by simp) _)))
    go_returns
    exact ⟨rfl, hba⟩
  have hB : bodyE ⟨kd, sp, sc, dp, dc, sq, da, th, ta, ack, ep, ec, ht⟩ = true := by
    have h := hM
    unfold mayEv at h
    rw [Bool.and_eq_true] at h
    exact h.2
  unfold bodyE at hB
  simp only at hB
  simp only [hM] at CM
  by_cases k6 : kd = 6
  · subst k6
    rw [if_pos rfl] at hB
    obtain ⟨z1, z2, z3⟩ := mayE_bounds hB
    clear hB
    obtain ⟨ecN, rfl⟩ : ∃ x : Nat, ec = x := ⟨ec.toNat, by omega⟩
    have HASP := Lib.hid (show hasP 6 = false from rfl)
    have ze := putL_len' (ep.size : Int)
    have zk := putL_len' 6
    have hR : encEv ⟨6, sp, sc, dp, dc, sq, da, th, ta, ack, ep, (ecN : Int), ht⟩ = .tuple #[.string ⟨(putL (6 : Int) ++ (putL (ep.size : Int) ++ (ep.data.toList ++ putL (ecN : Int)))).toArray⟩, .int .i64 0] := by
      unfold encEv encE
      rw [hM]
      simp [hasP, endBy]
    rw [hR]
    clear hR hM
    have hg0 : (w.alloc (.cells #[.int .i64 6, .string sp, .int .i64 sc, .string dp, .int .i64 dc, .int .i64 sq, .string da, .int .i64 th, .int .i64 ta, .string ack, .string ep, .int .i64 (ecN : Int), .int .i64 ht] 43)).heap[w.heap.size]? = some (.cells #[.int .i64 6, .string sp, .int .i64 sc, .string dp, .int .i64 dc, .int .i64 sq, .string da, .int .i64 th, .int .i64 ta, .string ack, .string ep, .int .i64 (ecN : Int), .int .i64 ht] 43 (0, 0)) := by
      show (w.heap.push _)[w.heap.size]? = _
      rw [Array.getElem?_push_size]
    have hbA : Below w.heap.size w (w.alloc (.cells #[.int .i64 6, .string sp, .int .i64 sc, .string dp, .int .i64 dc, .int .i64 sq, .string da, .int .i64 th, .int .i64 ta, .string ack, .string ep, .int .i64 (ecN : Int), .int .i64 ht] 43)) := Below.alloc (Below.refl _ _) (Nat.le_refl _) _
    have hsz : (w.alloc (.cells #[.int .i64 6, .string sp, .int .i64 sc, .string dp, .int .i64 dc, .int .i64 sq, .string da, .int .i64 th, .int .i64 ta, .string ack, .string ep, .int .i64 (ecN : Int), .int .i64 ht] 43)).heap.size = w.heap.size + 1 := by simp
    go_enter Try.func24, Try.ntmps24
    go_upto_region 3 with (go_at_call 43; refine (CM _).mono ?_; rintro e w1 ⟨rfl, hb1⟩; rw [hsz] at hb1; have hg := cells_of hg0 hb1 (by omega); have hwB : w.heap.size ≤ w1.heap.size := (by have := hb1.size; omega); have hgB : w.heap.size < w1.heap.size := (Array.getElem?_eq_some_iff.1 hg).1; have q0 := cell_heap hg 0; have q1 := cell_heap hg 1; have q2 := cell_heap hg 2; have q3 := cell_heap hg 3; have q4 := cell_heap hg 4; have q5 := cell_heap hg 5; have q6 := cell_heap hg 6; have q7 := cell_heap hg 7; have q8 := cell_heap hg 8; have q9 := cell_heap hg 9; have q10 := cell_heap hg 10; have q11 := cell_heap hg 11; have q12 := cell_heap hg 12; have hba : Below w.heap.size w w1 := hbA.trans (hb1.mono (by omega)))
    clear hg0 hbA hb1 hsz
    go_upto_region 4 with (go_at_call 21; refine (wnew_any w1.heap.size _ (Nat.le_refl _)).mono ?_; rintro e w2 ⟨rfl, hW, hb2⟩; have hbel := hba.trans (hb2.mono hba.size); have hBw := hb2.size; have hg := cells_of hg hb2 hgB; have q0 := cell_heap hg 0; have q1 := cell_heap hg 1; have q2 := cell_heap hg 2; have q3 := cell_heap hg 3; have q4 := cell_heap hg 4; have q5 := cell_heap hg 5; have q6 := cell_heap hg 6; have q7 := cell_heap hg 7; have q8 := cell_heap hg 8; have q9 := cell_heap hg 9; have q10 := cell_heap hg 10; have q11 := cell_heap hg 11; have q12 := cell_heap hg 12)
    go_upto_region 5 with (go_at_call 23; refine (wnum_int w1.heap.size _ _ _ 6 hW hBw (by decide) (by decide) (Nat.zero_le _)).mono ?_; rintro e w3 ⟨rfl, hW, hb3⟩; have hg := cells_of hg hb3 hgB; have q0 := cell_heap hg 0; have q1 := cell_heap hg 1; have q2 := cell_heap hg 2; have q3 := cell_heap hg 3; have q4 := cell_heap hg 4; have q5 := cell_heap hg 5; have q6 := cell_heap hg 6; have q7 := cell_heap hg 7; have q8 := cell_heap hg 8; have q9 := cell_heap hg 9; have q10 := cell_heap hg 10; have q11 := cell_heap hg 11; have q12 := cell_heap hg 12; have hBw := Nat.le_trans hBw hb3.size; have hbel := hbel.trans (hb3.mono hwB))
    go_upto_region 12 with (first | (go_at_call 51; refine (hasP_any _ _).mono ?_; rintro e wx ⟨rfl, hwx⟩; obtain rfl : _ = wx := hwx.symm; rw [HASP.out]) | (go_at_call 22; refine (wtext_ok w1.heap.size _ _ _ ep hW hBw ?_ ?_).mono ?_; omega; (first | omega | (simp only [List.nil_append]; omega) | (simp only [List.nil_append, List.length_append]; omega) | (simp only [List.nil_append, List.length_append, str_len]; omega)); rintro e w4 ⟨rfl, hW, hb4⟩; have hg := cells_of hg hb4 hgB; have q0 := cell_heap hg 0; have q1 := cell_heap hg 1; have q2 := cell_heap hg 2; have q3 := cell_heap hg 3; have q4 := cell_heap hg 4; have q5 := cell_heap hg 5; have q6 := cell_heap hg 6; have q7 := cell_heap hg 7; have q8 := cell_heap hg 8; have q9 := cell_heap hg 9; have q10 := cell_heap hg 10; have q11 := cell_heap hg 11; have q12 := cell_heap hg 12; have hBw := Nat.le_trans hBw hb4.size; have hbel := hbel.trans (hb4.mono hwB)))
    go_upto_region 15 with (go_at_call 23; refine (wnum_ok w1.heap.size _ _ _ ecN hW hBw ?_ ?_).mono ?_; omega; (first | omega | (simp only [List.nil_append]; omega) | (simp only [List.nil_append, List.length_append]; omega) | (simp only [List.nil_append, List.length_append, str_len]; omega)); rintro e w5 ⟨rfl, hW, hb5⟩; have hg := cells_of hg hb5 hgB; have q0 := cell_heap hg 0; have q1 := cell_heap hg 1; have q2 := cell_heap hg 2; have q3 := cell_heap hg 3; have q4 := cell_heap hg 4; have q5 := cell_heap hg 5; have q6 := cell_heap hg 6; have q7 := cell_heap hg 7; have q8 := cell_heap hg 8; have q9 := cell_heap hg 9; have q10 := cell_heap hg 10; have q11 := cell_heap hg 11; have q12 := cell_heap hg 12; have hBw := Nat.le_trans hBw hb5.size; have hbel := hbel.trans (hb5.mono hwB))
    go_wp2_with (go_at_call 25; refine (wbytes_rd w1.heap.size _ _ _ hW.rd hBw).mono ?_; rintro e w9 ⟨rfl, hW9, hb9⟩; have hbel := hbel.trans (hb9.mono hwB))
    go_returns
    exact ⟨by simp, hbel⟩
  rw [if_neg k6] at hB
  have e6 : (kd == 6) = false := beq_eq_false_iff_ne.2 k6
  by_cases k7 : kd = 7
  · subst k7
    rw [if_pos rfl, Bool.and_eq_true, decide_eq_true_eq, decide_eq_true_eq] at hB
    obtain ⟨z1, z2⟩ := hB
    obtain ⟨htN, rfl⟩ : ∃ x : Nat, ht = x := ⟨ht.toNat, by omega⟩
    have HASP := Lib.hid (show hasP 7 = false from rfl)
    have zk := putL_len' 7
    have hR : encEv ⟨7, sp, sc, dp, dc, sq, da, th, ta, ack, ep, ec, (htN : Int)⟩ = .tuple #[.string ⟨(putL (7 : Int) ++ putL (htN : Int)).toArray⟩, .int .i64 0] := by
      unfold encEv encE
      rw [hM]
      simp [hasP]
    rw [hR]
    clear hR hM
    have hg0 : (w.alloc (.cells #[.int .i64 7, .string sp, .int .i64 sc, .string dp, .int .i64 dc, .int .i64 sq, .string da, .int .i64 th, .int .i64 ta, .string ack, .string ep, .int .i64 ec, .int .i64 (htN : Int)] 43)).heap[w.heap.size]? = some (.cells #[.int .i64 7, .string sp, .int .i64 sc, .string dp, .int .i64 dc, .int .i64 sq, .string da, .int .i64 th, .int .i64 ta, .string ack, .string ep, .int .i64 ec, .int .i64 (htN : Int)] 43 (0, 0)) := by
      show (w.heap.push _)[w.heap.size]? = _
      rw [Array.getElem?_push_size]
    have hbA : Below w.heap.size w (w.alloc (.cells #[.int .i64 7, .string sp, .int .i64 sc, .string dp, .int .i64 dc, .int .i64 sq, .string da, .int .i64 th, .int .i64 ta, .string ack, .string ep, .int .i64 ec, .int .i64 (htN : Int)] 43)) := Below.alloc (Below.refl _ _) (Nat.le_refl _) _
    have hsz : (w.alloc (.cells #[.int .i64 7, .string sp, .int .i64 sc, .string dp, .int .i64 dc, .int .i64 sq, .string da, .int .i64 th, .int .i64 ta, .string ack, .string ep, .int .i64 ec, .int .i64 (htN : Int)] 43)).heap.size = w.heap.size + 1 := by simp
    go_enter Try.func24, Try.ntmps24
    go_upto_region 3 with (go_at_call 43; refine (CM _).mono ?_; rintro e w1 ⟨rfl, hb1⟩; rw [hsz] at hb1; have hg := cells_of hg0 hb1 (by omega); have hwB : w.heap.size ≤ w1.heap.size := (by have := hb1.size; omega); have hgB : w.heap.size < w1.heap.size := (Array.getElem?_eq_some_iff.1 hg).1; have q0 := cell_heap hg 0; have q1 := cell_heap hg 1; have q2 := cell_heap hg 2; have q3 := cell_heap hg 3; have q4 := cell_heap hg 4; have q5 := cell_heap hg 5; have q6 := cell_heap hg 6; have q7 := cell_heap hg 7; have q8 := cell_heap hg 8; have q9 := cell_heap hg 9; have q10 := cell_heap hg 10; have q11 := cell_heap hg 11; have q12 := cell_heap hg 12; have hba : Below w.heap.size w w1 := hbA.trans (hb1.mono (by omega)))
    clear hg0 hbA hb1 hsz
    go_upto_region 4 with (go_at_call 21; refine (wnew_any w1.heap.size _ (Nat.le_refl _)).mono ?_; rintro e w2 ⟨rfl, hW, hb2⟩; have hbel := hba.trans (hb2.mono hba.size); have hBw := hb2.size; have hg := cells_of hg hb2 hgB; have q0 := cell_heap hg 0; have q1 := cell_heap hg 1; have q2 := cell_heap hg 2; have q3 := cell_heap hg 3; have q4 := cell_heap hg 4; have q5 := cell_heap hg 5; have q6 := cell_heap hg 6; have q7 := cell_heap hg 7; have q8 := cell_heap hg 8; have q9 := cell_heap hg 9; have q10 := cell_heap hg 10; have q11 := cell_heap hg 11; have q12 := cell_heap hg 12)
    go_upto_region 5 with (go_at_call 23; refine (wnum_int w1.heap.size _ _ _ 7 hW hBw (by decide) (by decide) (Nat.zero_le _)).mono ?_; rintro e w3 ⟨rfl, hW, hb3⟩; have hg := cells_of hg hb3 hgB; have q0 := cell_heap hg 0; have q1 := cell_heap hg 1; have q2 := cell_heap hg 2; have q3 := cell_heap hg 3; have q4 := cell_heap hg 4; have q5 := cell_heap hg 5; have q6 := cell_heap hg 6; have q7 := cell_heap hg 7; have q8 := cell_heap hg 8; have q9 := cell_heap hg 9; have q10 := cell_heap hg 10; have q11 := cell_heap hg 11; have q12 := cell_heap hg 12; have hBw := Nat.le_trans hBw hb3.size; have hbel := hbel.trans (hb3.mono hwB))
    go_upto_region 15 with (first | (go_at_call 51; refine (hasP_any _ _).mono ?_; rintro e wx ⟨rfl, hwx⟩; obtain rfl : _ = wx := hwx.symm; rw [HASP.out]) | (go_at_call 23; refine (wnum_ok w1.heap.size _ _ _ htN hW hBw ?_ ?_).mono ?_; omega; (first | omega | (simp only [List.nil_append]; omega) | (simp only [List.nil_append, List.length_append]; omega) | (simp only [List.nil_append, List.length_append, str_len]; omega)); rintro e w5 ⟨rfl, hW, hb5⟩; have hg := cells_of hg hb5 hgB; have q0 := cell_heap hg 0; have q1 := cell_heap hg 1; have q2 := cell_heap hg 2; have q3 := cell_heap hg 3; have q4 := cell_heap hg 4; have q5 := cell_heap hg 5; have q6 := cell_heap hg 6; have q7 := cell_heap hg 7; have q8 := cell_heap hg 8; have q9 := cell_heap hg 9; have q10 := cell_heap hg 10; have q11 := cell_heap hg 11; have q12 := cell_heap hg 12; have hBw := Nat.le_trans hBw hb5.size; have hbel := hbel.trans (hb5.mono hwB)))
    go_wp2_with (go_at_call 25; refine (wbytes_rd w1.heap.size _ _ _ hW.rd hBw).mono ?_; rintro e w9 ⟨rfl, hW9, hb9⟩; have hbel := hbel.trans (hb9.mono hwB))
    go_returns
    exact ⟨by simp, hbel⟩
  rw [if_neg k7] at hB
  have e7 : (kd == 7) = false := beq_eq_false_iff_ne.2 k7
  by_cases k3 : kd = 3
  · subst k3
    rw [if_pos rfl, Bool.and_eq_true, Bool.and_eq_true, decide_eq_true_eq] at hB
    obtain ⟨⟨hK, _⟩, z1⟩ := hB
    obtain ⟨y1, y2, y3, y4, y5, y6, y7, y8, y9, y10, y11, y12, y13⟩ := mayK_bounds hK
    obtain ⟨scN, rfl⟩ : ∃ x : Nat, sc = x := ⟨sc.toNat, by omega⟩
    obtain ⟨dcN, rfl⟩ : ∃ x : Nat, dc = x := ⟨dc.toNat, by omega⟩
    obtain ⟨sqN, rfl⟩ : ∃ x : Nat, sq = x := ⟨sq.toNat, by omega⟩
    obtain ⟨thN, rfl⟩ : ∃ x : Nat, th = x := ⟨th.toNat, by omega⟩
    obtain ⟨taN, rfl⟩ : ∃ x : Nat, ta = x := ⟨ta.toNat, by omega⟩
    have zpk := pkBy_len sp scN dp dcN sqN da thN taN y1 y2 y3
    have HASP := Lib.hid (show hasP 3 = true from rfl)
    have zk := putL_len' 3
    have za := putL_len' (ack.size : Int)
    have hR : encEv ⟨3, sp, (scN : Int), dp, (dcN : Int), (sqN : Int), da, (thN : Int), (taN : Int), ack, ep, ec, ht⟩ = .tuple #[.string ⟨(putL (3 : Int) ++ (pkBy sp scN dp dcN sqN da thN taN ++ (putL (ack.size : Int) ++ ack.data.toList))).toArray⟩, .int .i64 0] := by
      unfold encEv encE
      rw [hM]
      simp [hasP]
    rw [hR]
    clear hR hM
    have hg0 : (w.alloc (.cells #[.int .i64 3, .string sp, .int .i64 (scN : Int), .string dp, .int .i64 (dcN : Int), .int .i64 (sqN : Int), .string da, .int .i64 (thN : Int), .int .i64 (taN : Int), .string ack, .string ep, .int .i64 ec, .int .i64 ht] 43)).heap[w.heap.size]? = some (.cells #[.int .i64 3, .string sp, .int .i64 (scN : Int), .string dp, .int .i64 (dcN : Int), .int .i64 (sqN : Int), .string da, .int .i64 (thN : Int), .int .i64 (taN : Int), .string ack, .string ep, .int .i64 ec, .int .i64 ht] 43 (0, 0)) := by
      show (w.heap.push _)[w.heap.size]? = _
      rw [Array.getElem?_push_size]
    have hbA : Below w.heap.size w (w.alloc (.cells #[.int .i64 3, .string sp, .int .i64 (scN : Int), .string dp, .int .i64 (dcN : Int), .int .i64 (sqN : Int), .string da, .int .i64 (thN : Int), .int .i64 (taN : Int), .string ack, .string ep, .int .i64 ec, .int .i64 ht] 43)) := Below.alloc (Below.refl _ _) (Nat.le_refl _) _
    have hsz : (w.alloc (.cells #[.int .i64 3, .string sp, .int .i64 (scN : Int), .string dp, .int .i64 (dcN : Int), .int .i64 (sqN : Int), .string da, .int .i64 (thN : Int), .int .i64 (taN : Int), .string ack, .string ep, .int .i64 ec, .int .i64 ht] 43)).heap.size = w.heap.size + 1 := by simp
    go_enter Try.func24, Try.ntmps24
    go_upto_region 3 with (go_at_call 43; refine (CM _).mono ?_; rintro e w1 ⟨rfl, hb1⟩; rw [hsz] at hb1; have hg := cells_of hg0 hb1 (by omega); have hwB : w.heap.size ≤ w1.heap.size := (by have := hb1.size; omega); have hgB : w.heap.size < w1.heap.size := (Array.getElem?_eq_some_iff.1 hg).1; have q0 := cell_heap hg 0; have q1 := cell_heap hg 1; have q2 := cell_heap hg 2; have q3 := cell_heap hg 3; have q4 := cell_heap hg 4; have q5 := cell_heap hg 5; have q6 := cell_heap hg 6; have q7 := cell_heap hg 7; have q8 := cell_heap hg 8; have q9 := cell_heap hg 9; have q10 := cell_heap hg 10; have q11 := cell_heap hg 11; have q12 := cell_heap hg 12; have hba : Below w.heap.size w w1 := hbA.trans (hb1.mono (by omega)))
    clear hg0 hbA hb1 hsz
    go_upto_region 4 with (go_at_call 21; refine (wnew_any w1.heap.size _ (Nat.le_refl _)).mono ?_; rintro e w2 ⟨rfl, hW, hb2⟩; have hbel := hba.trans (hb2.mono hba.size); have hBw := hb2.size; have hg := cells_of hg hb2 hgB; have q0 := cell_heap hg 0; have q1 := cell_heap hg 1; have q2 := cell_heap hg 2; have q3 := cell_heap hg 3; have q4 := cell_heap hg 4; have q5 := cell_heap hg 5; have q6 := cell_heap hg 6; have q7 := cell_heap hg 7; have q8 := cell_heap hg 8; have q9 := cell_heap hg 9; have q10 := cell_heap hg 10; have q11 := cell_heap hg 11; have q12 := cell_heap hg 12)
    go_upto_region 5 with (go_at_call 23; refine (wnum_int w1.heap.size _ _ _ 3 hW hBw (by decide) (by decide) (Nat.zero_le _)).mono ?_; rintro e w3 ⟨rfl, hW, hb3⟩; have hg := cells_of hg hb3 hgB; have q0 := cell_heap hg 0; have q1 := cell_heap hg 1; have q2 := cell_heap hg 2; have q3 := cell_heap hg 3; have q4 := cell_heap hg 4; have q5 := cell_heap hg 5; have q6 := cell_heap hg 6; have q7 := cell_heap hg 7; have q8 := cell_heap hg 8; have q9 := cell_heap hg 9; have q10 := cell_heap hg 10; have q11 := cell_heap hg 11; have q12 := cell_heap hg 12; have hBw := Nat.le_trans hBw hb3.size; have hbel := hbel.trans (hb3.mono hwB))
    go_upto_region 7 with (first | (go_at_call 51; refine (hasP_any _ _).mono ?_; rintro e wx ⟨rfl, hwx⟩; obtain rfl : _ = wx := hwx.symm; rw [HASP.out]) | (go_at_call 52; refine (pkWrite_any w1.heap.size _ _ _ sp scN dp dcN sqN da thN taN hW hBw (by omega) (by omega) (by omega) (by omega) (by omega) (by omega) (by omega) (by omega) ?_).mono ?_; (first | omega | (simp only [List.nil_append]; omega) | (simp only [List.nil_append, List.length_append]; omega) | (simp only [List.nil_append, List.length_append, str_len]; omega)); rintro e w4 ⟨rfl, hW, hb4, _⟩; have hg := cells_of hg hb4 hgB; have q0 := cell_heap hg 0; have q1 := cell_heap hg 1; have q2 := cell_heap hg 2; have q3 := cell_heap hg 3; have q4 := cell_heap hg 4; have q5 := cell_heap hg 5; have q6 := cell_heap hg 6; have q7 := cell_heap hg 7; have q8 := cell_heap hg 8; have q9 := cell_heap hg 9; have q10 := cell_heap hg 10; have q11 := cell_heap hg 11; have q12 := cell_heap hg 12; have hBw := Nat.le_trans hBw hb4.size; have hbel := hbel.trans (hb4.mono hwB)))
    go_upto_region 15 with (go_at_call 22; refine (wtext_ok w1.heap.size _ _ _ ack hW hBw ?_ ?_).mono ?_; omega; (first | omega | (simp only [List.nil_append]; omega) | (simp only [List.nil_append, List.length_append]; omega) | (simp only [List.nil_append, List.length_append, str_len]; omega)); rintro e w5 ⟨rfl, hW, hb5⟩; have hg := cells_of hg hb5 hgB; have q0 := cell_heap hg 0; have q1 := cell_heap hg 1; have q2 := cell_heap hg 2; have q3 := cell_heap hg 3; have q4 := cell_heap hg 4; have q5 := cell_heap hg 5; have q6 := cell_heap hg 6; have q7 := cell_heap hg 7; have q8 := cell_heap hg 8; have q9 := cell_heap hg 9; have q10 := cell_heap hg 10; have q11 := cell_heap hg 11; have q12 := cell_heap hg 12; have hBw := Nat.le_trans hBw hb5.size; have hbel := hbel.trans (hb5.mono hwB))
    go_wp2_with (go_at_call 25; refine (wbytes_rd w1.heap.size _ _ _ hW.rd hBw).mono ?_; rintro e w9 ⟨rfl, hW9, hb9⟩; have hbel := hbel.trans (hb9.mono hwB))
    go_returns
    exact ⟨by simp, hbel⟩
  rw [if_neg k3, Bool.and_eq_true] at hB
  have e3 : (kd == 3) = false := beq_eq_false_iff_ne.2 k3
  obtain ⟨hH, hK⟩ := hB
  have hk5 : 1 ≤ kd ∧ kd ≤ 5 := by
    have h := hH
    unfold hasP at h
    rw [Bool.and_eq_true, decide_eq_true_eq, decide_eq_true_eq] at h
    exact h
  obtain ⟨kN, rfl⟩ : ∃ x : Nat, kd = x := ⟨kd.toNat, by omega⟩
  obtain ⟨y1, y2, y3, y4, y5, y6, y7, y8, y9, y10, y11, y12, y13⟩ := mayK_bounds hK
  obtain ⟨scN, rfl⟩ : ∃ x : Nat, sc = x := ⟨sc.toNat, by omega⟩
  obtain ⟨dcN, rfl⟩ : ∃ x : Nat, dc = x := ⟨dc.toNat, by omega⟩
  obtain ⟨sqN, rfl⟩ : ∃ x : Nat, sq = x := ⟨sq.toNat, by omega⟩
  obtain ⟨thN, rfl⟩ : ∃ x : Nat, th = x := ⟨th.toNat, by omega⟩
  obtain ⟨taN, rfl⟩ : ∃ x : Nat, ta = x := ⟨ta.toNat, by omega⟩
  have zpk := pkBy_len sp scN dp dcN sqN da thN taN y1 y2 y3
  have zk := putL_len' (kN : Int)
  have hR : encEv ⟨(kN : Int), sp, (scN : Int), dp, (dcN : Int), (sqN : Int), da, (thN : Int), (taN : Int), ack, ep, ec, ht⟩ = .tuple #[.string ⟨(putL (kN : Int) ++ pkBy sp scN dp dcN sqN da thN taN).toArray⟩, .int .i64 0] := by
    unfold encEv encE
    rw [hM]
    simp [hH, e3, e6, e7]
  rw [hR]
  clear hR hM
  have HASP := Lib.hid hH
  clear hH hK
  have hg0 : (w.alloc (.cells #[.int .i64 (kN : Int), .string sp, .int .i64 (scN : Int), .string dp, .int .i64 (dcN : Int), .int .i64 (sqN : Int), .string da, .int .i64 (thN : Int), .int .i64 (taN : Int), .string ack, .string ep, .int .i64 ec, .int .i64 ht] 43)).heap[w.heap.size]? = some (.cells #[.int .i64 (kN : Int), .string sp, .int .i64 (scN : Int), .string dp, .int .i64 (dcN : Int), .int .i64 (sqN : Int), .string da, .int .i64 (thN : Int), .int .i64 (taN : Int), .string ack, .string ep, .int .i64 ec, .int .i64 ht] 43 (0, 0)) := by
    show (w.heap.push _)[w.heap.size]? = _
    rw [Array.getElem?_push_size]
  have hbA : Below w.heap.size w (w.alloc (.cells #[.int .i64 (kN : Int), .string sp, .int .i64 (scN : Int), .string dp, .int .i64 (dcN : Int), .int .i64 (sqN : Int), .string da, .int .i64 (thN : Int), .int .i64 (taN : Int), .string ack, .string ep, .int .i64 ec, .int .i64 ht] 43)) := Below.alloc (Below.refl _ _) (Nat.le_refl _) _
  have hsz : (w.alloc (.cells #[.int .i64 (kN : Int), .string sp, .int .i64 (scN : Int), .string dp, .int .i64 (dcN : Int), .int .i64 (sqN : Int), .string da, .int .i64 (thN : Int), .int .i64 (taN : Int), .string ack, .string ep, .int .i64 ec, .int .i64 ht] 43)).heap.size = w.heap.size + 1 := by simp
  go_enter Try.func24, Try.ntmps24
  go_upto_region 3 with (go_at_call 43; refine (CM _).mono ?_; rintro e w1 ⟨rfl, hb1⟩; rw [hsz] at hb1; have hg := cells_of hg0 hb1 (by omega); have hwB : w.heap.size ≤ w1.heap.size := (by have := hb1.size; omega); have hgB : w.heap.size < w1.heap.size := (Array.getElem?_eq_some_iff.1 hg).1; have q0 := cell_heap hg 0; have q1 := cell_heap hg 1; have q2 := cell_heap hg 2; have q3 := cell_heap hg 3; have q4 := cell_heap hg 4; have q5 := cell_heap hg 5; have q6 := cell_heap hg 6; have q7 := cell_heap hg 7; have q8 := cell_heap hg 8; have q9 := cell_heap hg 9; have q10 := cell_heap hg 10; have q11 := cell_heap hg 11; have q12 := cell_heap hg 12; have hba : Below w.heap.size w w1 := hbA.trans (hb1.mono (by omega)))
  clear hg0 hbA hb1 hsz
  go_upto_region 4 with (go_at_call 21; refine (wnew_any w1.heap.size _ (Nat.le_refl _)).mono ?_; rintro e w2 ⟨rfl, hW, hb2⟩; have hbel := hba.trans (hb2.mono hba.size); have hBw := hb2.size; have hg := cells_of hg hb2 hgB; have q0 := cell_heap hg 0; have q1 := cell_heap hg 1; have q2 := cell_heap hg 2; have q3 := cell_heap hg 3; have q4 := cell_heap hg 4; have q5 := cell_heap hg 5; have q6 := cell_heap hg 6; have q7 := cell_heap hg 7; have q8 := cell_heap hg 8; have q9 := cell_heap hg 9; have q10 := cell_heap hg 10; have q11 := cell_heap hg 11; have q12 := cell_heap hg 12)
  go_upto_region 5 with (go_at_call 23; refine (wnum_int w1.heap.size _ _ _ (kN : Int) hW hBw (by omega) (by omega) (Nat.zero_le _)).mono ?_; rintro e w3 ⟨rfl, hW, hb3⟩; have hg := cells_of hg hb3 hgB; have q0 := cell_heap hg 0; have q1 := cell_heap hg 1; have q2 := cell_heap hg 2; have q3 := cell_heap hg 3; have q4 := cell_heap hg 4; have q5 := cell_heap hg 5; have q6 := cell_heap hg 6; have q7 := cell_heap hg 7; have q8 := cell_heap hg 8; have q9 := cell_heap hg 9; have q10 := cell_heap hg 10; have q11 := cell_heap hg 11; have q12 := cell_heap hg 12; have hBw := Nat.le_trans hBw hb3.size; have hbel := hbel.trans (hb3.mono hwB))
  go_upto_region 15 with (first | (go_at_call 51; refine (hasP_any _ _).mono ?_; rintro e wx ⟨rfl, hwx⟩; obtain rfl : _ = wx := hwx.symm; rw [HASP.out]) | (go_at_call 52; refine (pkWrite_any w1.heap.size _ _ _ sp scN dp dcN sqN da thN taN hW hBw (by omega) (by omega) (by omega) (by omega) (by omega) (by omega) (by omega) (by omega) ?_).mono ?_; (first | omega | (simp only [List.nil_append]; omega) | (simp only [List.nil_append, List.length_append]; omega) | (simp only [List.nil_append, List.length_append, str_len]; omega)); rintro e w4 ⟨rfl, hW, hb4, _⟩; have hg := cells_of hg hb4 hgB; have q0 := cell_heap hg 0; have q1 := cell_heap hg 1; have q2 := cell_heap hg 2; have q3 := cell_heap hg 3; have q4 := cell_heap hg 4; have q5 := cell_heap hg 5; have q6 := cell_heap hg 6; have q7 := cell_heap hg 7; have q8 := cell_heap hg 8; have q9 := cell_heap hg 9; have q10 := cell_heap hg 10; have q11 := cell_heap hg 11; have q12 := cell_heap hg 12; have hBw := Nat.le_trans hBw hb4.size; have hbel := hbel.trans (hb4.mono hwB)))
  go_wp2_with (go_at_call 25; refine (wbytes_rd w1.heap.size _ _ _ hW.rd hBw).mono ?_; rintro e w9 ⟨rfl, hW9, hb9⟩; have hbel := hbel.trans (hb9.mono hwB))
  go_returns
  exact ⟨by simp, hbel⟩
end Go.Proofs.Ytcbacchelabljaa
