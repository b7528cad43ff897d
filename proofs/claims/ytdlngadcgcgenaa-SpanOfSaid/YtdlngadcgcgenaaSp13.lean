/- SpanOf walked. -/
import Derived.Test.YtdlngadcgcgenaaSp12
import Derived.Test.YtdlngadcgcgenaaSp5
import Derived.BigRegion
import Derived.RegionTactic
import Derived.BigQuiet
import Derived.Deep.QuietTactic
import Derived.Deep.MidRow
import Derived.LoopTactic
import Derived.BigFrame
import Derived.Laws.OwnMore
import Derived.WalkKit
import Derived.ProofKit
import Derived.Handy
import Derived.Below
import Derived.Lib.Hide
import Derived.IntWalk
import Derived.Outline
import Derived.WalkLawsBesides
import Derived.WalkSpells
namespace Go.Proofs.Ytdlngadcgcgenaa
open Go.RowKit
attribute [local go_sem] strV
set_option linter.unusedVariables false
set_option maxRecDepth 100000 in
set_option maxHeartbeats 12800000 in
theorem walkSpanOf (a : Option Addr) (n cap : Nat) (l : List Int) (ex : Int) (w : World) (h : IntsAt w a n l) (ha : a = none → n = 0 ∧ cap = 0) :
    Calls Try.prog 5 #[.slice a n cap, .int .i64 ex] w fun e w' => e = .returned (.bool true) ∧ Below w.heap.size w w' := by
  have hr := h.row
  have hn := h.length
  clear h
  go_enter Try.func5, Try.ntmps5
  have hbel := Below.refl w.heap.size w
  go_upto_region 3 with (go_at_call 8; refine (first23_any _).mono ?_; rintro e w2 ⟨rfl, hb⟩; have hbel := hbel.trans (hb.mono hbel.size); clear hb)
  by_cases h1 : 100 < n
  · have d1 : decide (100 < (n : Int)) = true := decide_eq_true (by omega)
    have d1n : decide (100 < n) = true := decide_eq_true h1
    go_wp2_with (go_at_call 8; refine (first23_any _).mono ?_; rintro e w2 ⟨rfl, hb⟩; have hbel := hbel.trans (hb.mono hbel.size); clear hb)
    go_ret
    exact ⟨by first | rfl | simp, hbel⟩
  have d1 : decide (100 < (n : Int)) = false := decide_eq_false (by omega)
  have d1n : decide (100 < n) = false := decide_eq_false h1
  have CL := fun W (hb : Below w.heap.size w W) => lend_any a n cap l W (hr.below hb) hn (by omega) ha
  go_upto_region 6 with (first | (go_at_call 8; refine (first23_any _).mono ?_; rintro e w2 ⟨rfl, hb⟩; have hbel := hbel.trans (hb.mono hbel.size); clear hb) | (go_at_call 15; refine (CL _ hbel).mono ?_; rintro e w3 ⟨g, rfl, hg0, hrG, hb⟩))
  have hbel := hbel.trans (hb.mono hbel.size)
  have hgpre : RowAt w3 (some ⟨g, 0, none⟩) (l.map (Value.int .i64)) := row_prefix (ys := [Value.int .i64 (-777), .int .i64 (-777)]) (by have h := hrG; rw [List.map_append] at h; exact h)
  clear hb CL
  have CO := of_any (some ⟨g, 0, none⟩) n (n + 2) l w3 hgpre hn (by omega)
  have hok := (ofR_ok l).good
  have hcnt := ofR_cnt l
  have hxl := ofR_len l
  have hhas := ofR_has l
  have CN := fun W (hb : Below w.heap.size w W) => ofNums_any a n cap l W (hr.below hb) hn (by omega)
  obtain ⟨X, hX⟩ : ∃ X, ofR l = X := ⟨_, rfl⟩
  simp only [hX] at CO hok hcnt hxl hhas CN
  have hX2 : addAll l.reverse = X := by rw [addAll_rev, hX]
  obtain ⟨nX, hnX⟩ : ∃ z, X.length = z := ⟨_, rfl⟩
  have hX1 : nX ≤ 100 := by omega
  simp only [hnX] at CO CN
  clear hgpre hX
  go_upto_region 7 with (go_at_call 13; refine CO.mono ?_; rintro e w4 ⟨vX, rfl, hoX, hb⟩)
  have hrG := hrG.below hb
  have hbel := hbel.trans (hb.mono hbel.size)
  obtain ⟨aX, cX, rfl, hrX, _⟩ := own_slice hoX
  clear hb CO hoX
  have CK := kept_any a n cap g l w4 hrG (hr.below hbel) hn (by omega)
  have CG : ∀ W, Below w4.heap.size w4 W → Calls Try.prog 9 #[.slice aX nX cX] W fun e w' => e = .returned (.bool true) ∧ Below W.heap.size W w' := fun W hb => by
    have := good_any aX nX cX X W (hrX.below hb) hnX (by unfold maxLen; omega)
    rw [show goodR X = true from hok] at this
    exact this
  have CR : ∀ (a2 : Option Addr) (c2 : Nat) W, Below w4.heap.size w4 W → RowAt W a2 (X.flatMap rgL) → Calls Try.prog 17 #[.slice aX nX cX, .slice a2 nX c2] W fun e w' => e = .returned (.bool true) ∧ Below W.heap.size W w' := fun a2 c2 W hb h2 => by
    have := ranges_any (cap := cX) (cap' := c2) (hrX.below hb) h2 hnX hnX (by unfold maxLen; omega) (by unfold maxLen; omega)
    rw [beq_self_eq_true] at this
    exact this
  have HN := Lib.hid hn
  have HNX := Lib.hid hnX
  have HHAS := Lib.hid hhas
  have HX2 := Lib.hid hX2
  have HOK := Lib.hid (show goodR X = true from hok)
  have HCNT := Lib.hid hcnt
  clear hhas hok hX2 hcnt hrG
  go_upto_region 9 with (first | (go_at_call 16; refine CK.mono ?_; rintro e w5 ⟨rfl, hb5⟩) | (go_at_call 9; refine (CG _ hb5).mono ?_; rintro e w6 ⟨rfl, hb6⟩; have hb56 := hb5.trans (hb6.mono hb5.size)) | (go_at_call 18; refine (CN _ (hbel.trans (hb56.mono hbel.size))).mono ?_; rintro e w7 ⟨v7, rfl, ho7, hb7⟩; have hb57 := hb56.trans (hb7.mono hb56.size); obtain ⟨a7, c7, rfl, hr7, _⟩ := own_slice ho7) | (go_at_call 17; refine (CR a7 c7 _ hb57 hr7).mono ?_; rintro e w8 ⟨rfl, hb8⟩))
  have hb48 := hb57.trans (hb8.mono hb57.size)
  have hrX := hrX.below hb48
  have hbel := hbel.trans (hb48.mono hbel.size)
  clear hb5 hb6 hb56 hb7 hb57 hb8 hr7 ho7 CK CG CN CR hb48
  go_upto_region 12 with fail
  obtain ⟨wo, hwo⟩ : ∃ W, w8 = W := ⟨_, rfl⟩
  rw [hwo] at hbel hrX
  simp only [hwo]
  clear hwo
  go_loopw [7, 8, 9] (fun pv tv iv wr => ∃ (k : Nat) (i : Int) (t : Bool), k ≤ n ∧ i + 1 = (k : Int) ∧ iv = .int .i64 i ∧ tv = .bool t ∧ Hid (t = (l.drop k).contains ex) ∧ wr.ownsRow w.heap.size 62 2 pv (addAll (l.drop k).reverse).length ((addAll (l.drop k).reverse).flatMap rgL) ∧ Below wo.heap.size wo wr) (fun _ _ iv _ => (intOf iv + 1).toNat)
  case atStart => exact ⟨n, (n : Int) - 1, false, Nat.le_refl _, by omega, rfl, rfl, Lib.hid (by rw [List.drop_of_length_le (by rw [HN.out]; exact Nat.le_refl _)]; rfl), by rw [List.drop_of_length_le (by rw [HN.out]; exact Nat.le_refl _)]; exact World.ownsRow_nil _ _ _ _, Below.refl _ _⟩
  case round =>
    obtain ⟨k, i, t, hk, hi, rfl, rfl, HT, hown, hbo⟩ := hrel
    have hbr := hbel.trans (hbo.mono hbel.size)
    have hrX := hrX.below hbo
    rcases k with _ | j
    rotate_left
    · obtain rfl : i = (j : Int) := by omega
      have d9 : decide (0 ≤ (j : Int)) = true := decide_eq_true (by omega)
      have hjl : j < l.length := by rw [HN.out]; omega
      obtain ⟨b1, o1, rfl, hb1, hc1⟩ := row_get (hr.below hbr) hjl
      have hgd := (addAll_ok (l.drop (j + 1)).reverse).1
      have hln := addAll_len (l.drop (j + 1)).reverse
      rw [List.length_reverse, List.length_drop, HN.out] at hln
      have hx9 : insideB l[j] = hasR X l[j] := by
        rw [Bool.eq_iff_iff, HHAS.out]
        exact ⟨fun h => ⟨List.getElem_mem hjl, h⟩, fun h => h.2⟩
      have hdr : l.drop j = l[j] :: l.drop (j + 1) := List.drop_eq_getElem_cons hjl
      have hstep : addAll (l.drop j).reverse = addR (addAll (l.drop (j + 1)).reverse) l[j] := by
        rw [hdr, List.reverse_cons]
        unfold addAll
        rw [List.foldl_append]; rfl
      have hcon : (l.drop j).contains ex = ((l[j] == ex) || (l.drop (j + 1)).contains ex) := by
        rw [hdr, List.contains_cons, Bool.eq_iff_iff, Bool.or_eq_true, Bool.or_eq_true, beq_iff_eq, beq_iff_eq]
        exact ⟨fun h => h.imp Eq.symm id, fun h => h.imp Eq.symm id⟩
      rw [← HT.out] at hcon
      obtain ⟨x, hx⟩ : ∃ x, l[j] = x := ⟨_, rfl⟩
      rw [hx] at hc1 hx9 hstep hcon
      obtain ⟨P, hP⟩ : ∃ P, addAll (l.drop (j + 1)).reverse = P := ⟨_, rfl⟩
      rw [hP] at hgd hln hown hstep
      have hres : addRes P x = addR P x := by unfold addRes; rw [if_pos hgd]
      rw [← hres] at hstep
      obtain ⟨aP, cP, hvP, hrP, hP1, hP2, haP⟩ := own_sliceN hown
      subst hvP
      have CA := add_any aP P.length cP P x wr hrP rfl (by omega) haP
      obtain ⟨Pn, hPn⟩ : ∃ Q, addRes P x = Q := ⟨_, rfl⟩
      rw [hPn] at hstep
      simp only [hPn] at CA
      have CH : ∀ W, RowAt W aX (X.flatMap rgL) → Calls Try.prog 11 #[.slice aX nX cX, .int .i64 x] W fun e w' => e = .returned (.bool (insideB x)) ∧ Below W.heap.size W w' := fun W hx => by
        have := has_any aX nX cX X x W hx HNX.out (by unfold maxLen; omega)
        rw [← hx9] at this
        exact this
      obtain ⟨e, he⟩ : ∃ e, (x == ex) = e := ⟨_, rfl⟩
      rw [he] at hcon
      have HST := Lib.hid hstep
      have HCON := Lib.hid hcon
      have n0 : (0 : Int) ≤ (j : Int) := by omega
      have n1 : (j : Int) < (n : Int) := by omega
      have n2 : ((j : Nat) : Int).toNat = j := by omega
      have HJ := Lib.hid hk
      clear hx hP hgd hln hx9 hdr hstep hcon hres hPn hown hrP hi hk hjl
      cases t
      · skip
        go_upto_region 16 with (go_at_call 19; refine CA.mono ?_; rintro e6 w6 ⟨v6, rfl, ho6, hb6⟩; have hc6 := (hb6.cell (p := ⟨b1, o1 + j, none⟩) hb1).trans hc1)
        have hrX6 := hrX.below hb6
        have hbo6 := hbo.trans (hb6.mono hbo.size)
        have hb16 := Nat.lt_of_lt_of_le hb1 hb6.size
        obtain ⟨hcb, hfb⟩ := beyond_cells (W := w6)
        clear CA hb6 hc1 hb1 hrX
        by_cases g1 : x < 0
        · skip
          have dge : decide (0 ≤ x) = false := decide_eq_false (by omega)
          have dle : decide (x ≤ 72057594037927935) = true := decide_eq_true (by omega)
          have hin : insideB x = false := by unfold insideB maxN; simp only [dge, dle]; rfl
          rw [hin] at CH
          clear hin
          refine wp_region_below (by kernel_rfl) (by kernel_rfl) ?_
          repeat (go_big_quiet_step (first | (go_at_call 11; exact quiet_below (CH _ (hrX6.below (Beyond.h _)))) | fail))
          intro w9 hw9
          have hb9 := beyond_below hw9
          go_wp2
          go_roundw
          case rel => exact ⟨j, (j : Int) - 1, _, by have := HJ.out; omega, by omega, rfl, rfl, Lib.hid (by rw [HCON.out]; first | rfl | simp), by rw [HST.out]; exact own_kept9 (own_lowerM ho6 hbr.size) hb9, hbo6.trans (hb9.mono hbo6.size)⟩
          case measure => (simp [intOf]) <;> omega
        have dge : decide (0 ≤ x) = true := decide_eq_true (by omega)
        by_cases g2 : x ≤ 72057594037927935
        · skip
          have dle : decide (x ≤ 72057594037927935) = true := decide_eq_true g2
          have hin : insideB x = true := by unfold insideB maxN; simp only [dge, dle]; rfl
          rw [hin] at CH
          clear hin
          refine wp_region_below (by kernel_rfl) (by kernel_rfl) ?_
          repeat (go_big_quiet_step (first | (go_at_call 11; exact quiet_below (CH _ (hrX6.below (Beyond.h _)))) | fail))
          intro w9 hw9
          have hb9 := beyond_below hw9
          go_wp2
          go_roundw
          case rel => exact ⟨j, (j : Int) - 1, _, by have := HJ.out; omega, by omega, rfl, rfl, Lib.hid (by rw [HCON.out]; first | rfl | simp), by rw [HST.out]; exact own_kept9 (own_lowerM ho6 hbr.size) hb9, hbo6.trans (hb9.mono hbo6.size)⟩
          case measure => (simp [intOf]) <;> omega
        · skip
          have dle : decide (x ≤ 72057594037927935) = false := decide_eq_false g2
          have hin : insideB x = false := by unfold insideB maxN; simp only [dge, dle]; rfl
          rw [hin] at CH
          clear hin
          refine wp_region_below (by kernel_rfl) (by kernel_rfl) ?_
          repeat (go_big_quiet_step (first | (go_at_call 11; exact quiet_below (CH _ (hrX6.below (Beyond.h _)))) | fail))
          intro w9 hw9
          have hb9 := beyond_below hw9
          go_wp2
          go_roundw
          case rel => exact ⟨j, (j : Int) - 1, _, by have := HJ.out; omega, by omega, rfl, rfl, Lib.hid (by rw [HCON.out]; first | rfl | simp), by rw [HST.out]; exact own_kept9 (own_lowerM ho6 hbr.size) hb9, hbo6.trans (hb9.mono hbo6.size)⟩
          case measure => (simp [intOf]) <;> omega
      · skip
        go_upto_region 16 with (go_at_call 19; refine CA.mono ?_; rintro e6 w6 ⟨v6, rfl, ho6, hb6⟩; have hc6 := (hb6.cell (p := ⟨b1, o1 + j, none⟩) hb1).trans hc1)
        have hrX6 := hrX.below hb6
        have hbo6 := hbo.trans (hb6.mono hbo.size)
        have hb16 := Nat.lt_of_lt_of_le hb1 hb6.size
        obtain ⟨hcb, hfb⟩ := beyond_cells (W := w6)
        clear CA hb6 hc1 hb1 hrX
        by_cases g1 : x < 0
        · skip
          have dge : decide (0 ≤ x) = false := decide_eq_false (by omega)
          have dle : decide (x ≤ 72057594037927935) = true := decide_eq_true (by omega)
          have hin : insideB x = false := by unfold insideB maxN; simp only [dge, dle]; rfl
          rw [hin] at CH
          clear hin
          refine wp_region_below (by kernel_rfl) (by kernel_rfl) ?_
          repeat (go_big_quiet_step (first | (go_at_call 11; exact quiet_below (CH _ (hrX6.below (Beyond.h _)))) | fail))
          intro w9 hw9
          have hb9 := beyond_below hw9
          go_wp2
          go_roundw
          case rel => exact ⟨j, (j : Int) - 1, _, by have := HJ.out; omega, by omega, rfl, rfl, Lib.hid (by rw [HCON.out]; first | rfl | simp), by rw [HST.out]; exact own_kept9 (own_lowerM ho6 hbr.size) hb9, hbo6.trans (hb9.mono hbo6.size)⟩
          case measure => (simp [intOf]) <;> omega
        have dge : decide (0 ≤ x) = true := decide_eq_true (by omega)
        by_cases g2 : x ≤ 72057594037927935
        · skip
          have dle : decide (x ≤ 72057594037927935) = true := decide_eq_true g2
          have hin : insideB x = true := by unfold insideB maxN; simp only [dge, dle]; rfl
          rw [hin] at CH
          clear hin
          refine wp_region_below (by kernel_rfl) (by kernel_rfl) ?_
          repeat (go_big_quiet_step (first | (go_at_call 11; exact quiet_below (CH _ (hrX6.below (Beyond.h _)))) | fail))
          intro w9 hw9
          have hb9 := beyond_below hw9
          go_wp2
          go_roundw
          case rel => exact ⟨j, (j : Int) - 1, _, by have := HJ.out; omega, by omega, rfl, rfl, Lib.hid (by rw [HCON.out]; first | rfl | simp), by rw [HST.out]; exact own_kept9 (own_lowerM ho6 hbr.size) hb9, hbo6.trans (hb9.mono hbo6.size)⟩
          case measure => (simp [intOf]) <;> omega
        · skip
          have dle : decide (x ≤ 72057594037927935) = false := decide_eq_false g2
          have hin : insideB x = false := by unfold insideB maxN; simp only [dge, dle]; rfl
          rw [hin] at CH
          clear hin
          refine wp_region_below (by kernel_rfl) (by kernel_rfl) ?_
          repeat (go_big_quiet_step (first | (go_at_call 11; exact quiet_below (CH _ (hrX6.below (Beyond.h _)))) | fail))
          intro w9 hw9
          have hb9 := beyond_below hw9
          go_wp2
          go_roundw
          case rel => exact ⟨j, (j : Int) - 1, _, by have := HJ.out; omega, by omega, rfl, rfl, Lib.hid (by rw [HCON.out]; first | rfl | simp), by rw [HST.out]; exact own_kept9 (own_lowerM ho6 hbr.size) hb9, hbo6.trans (hb9.mono hbo6.size)⟩
          case measure => (simp [intOf]) <;> omega
    have d9 : decide (0 ≤ i) = false := decide_eq_false (by omega)
    have HTE : Hid (t = l.contains ex) := HT
    have hX9 : addAll (l.drop 0).reverse = X := HX2.out
    rw [hX9, HNX.out] at hown
    obtain ⟨aP, cP, hvP, hrP, hP1, hP2, haP⟩ := own_sliceN hown
    subst hvP
    have CD := doc_any aX nX cX X wr hrX HNX.out (by omega)
    rw [HNX.out] at CD
    have CR : ∀ (a2 : Option Addr) (c2 : Nat) W, Below wr.heap.size wr W → RowAt W a2 (X.flatMap rgL) → Calls Try.prog 17 #[.slice aP nX cP, .slice a2 nX c2] W fun e w' => e = .returned (.bool true) ∧ Below W.heap.size W w' := fun a2 c2 W hb h2 => by
      have := ranges_any (cap := cP) (cap' := c2) (hrP.below hb) h2 HNX.out HNX.out (by unfold maxLen; omega) (by unfold maxLen; omega)
      rw [beq_self_eq_true] at this
      exact this
    have CH : ∀ W, Below wr.heap.size wr W → Calls Try.prog 11 #[.slice aX nX cX, .int .i64 ex] W fun e w' => e = .returned (.bool (t && insideB ex)) ∧ Below W.heap.size W w' := fun W hb => by
      have := has_any aX nX cX X ex W (hrX.below hb) HNX.out (by unfold maxLen; omega)
      rw [show hasR X ex = (t && insideB ex) by rw [Bool.eq_iff_iff, HHAS.out, HTE.out, Bool.and_eq_true, List.contains_eq_mem, decide_eq_true_eq]] at this
      exact this
    have CC : ∀ W, Below wr.heap.size wr W → Calls Try.prog 12 #[.slice aX nX cX] W fun e w' => e = .returned (.int .i64 (countR X)) ∧ Below W.heap.size W w' := fun W hb => by
      have := count_any aX nX cX X W (hrX.below hb) HNX.out (by unfold maxLen; omega)
      rw [HOK.out, if_pos rfl] at this
      exact this
    obtain ⟨cn, hcn⟩ : ∃ c, countR X = c := ⟨_, rfl⟩
    have hcnt := HCNT.out
    rw [HN.out] at hcnt
    rw [hcn] at CC hcnt
    have dc : decide (cn ≤ (n : Int)) = true := decide_eq_true hcnt
    clear hX9 hown hi hP1 hP2 haP hcn
    cases t
    · skip
      rw [show (false && insideB ex) = false by rfl] at CH
      go_wp2_with (first | (go_at_call 20; refine CD.mono ?_; rintro e w5 ⟨v5, rfl, ho5, hb5⟩; obtain ⟨a5, c5, rfl, hr5, _⟩ := own_slice ho5) | (go_at_call 17; refine (CR a5 c5 _ hb5 hr5).mono ?_; rintro e w6 ⟨rfl, hb⟩; have hb6 := hb5.trans (hb.mono hb5.size); clear hb) | (go_at_call 11; refine (CH _ hb6).mono ?_; rintro e w7 ⟨rfl, hb⟩; have hb7 := hb6.trans (hb.mono hb6.size); clear hb) | (go_at_call 12; refine (CC _ hb7).mono ?_; rintro e w9 ⟨rfl, hb⟩; have hb9 := hb7.trans (hb.mono hb7.size); clear hb))
      go_ret
      exact ⟨by first | rfl | simp, hbr.trans (hb9.mono hbr.size)⟩
    · by_cases g1 : ex < 0
      · skip
        have dge : decide (0 ≤ ex) = false := decide_eq_false (by omega)
        have dle : decide (ex ≤ 72057594037927935) = true := decide_eq_true (by omega)
        rw [show (true && insideB ex) = false by unfold insideB maxN; simp only [dge, dle]; rfl] at CH
        go_wp2_with (first | (go_at_call 20; refine CD.mono ?_; rintro e w5 ⟨v5, rfl, ho5, hb5⟩; obtain ⟨a5, c5, rfl, hr5, _⟩ := own_slice ho5) | (go_at_call 17; refine (CR a5 c5 _ hb5 hr5).mono ?_; rintro e w6 ⟨rfl, hb⟩; have hb6 := hb5.trans (hb.mono hb5.size); clear hb) | (go_at_call 11; refine (CH _ hb6).mono ?_; rintro e w7 ⟨rfl, hb⟩; have hb7 := hb6.trans (hb.mono hb6.size); clear hb) | (go_at_call 12; refine (CC _ hb7).mono ?_; rintro e w9 ⟨rfl, hb⟩; have hb9 := hb7.trans (hb.mono hb7.size); clear hb))
        go_ret
        exact ⟨by first | rfl | simp, hbr.trans (hb9.mono hbr.size)⟩
      have dge : decide (0 ≤ ex) = true := decide_eq_true (by omega)
      by_cases g2 : ex ≤ 72057594037927935
      · skip
        have dle : decide (ex ≤ 72057594037927935) = true := decide_eq_true g2
        rw [show (true && insideB ex) = true by unfold insideB maxN; simp only [dge, dle]; rfl] at CH
        go_wp2_with (first | (go_at_call 20; refine CD.mono ?_; rintro e w5 ⟨v5, rfl, ho5, hb5⟩; obtain ⟨a5, c5, rfl, hr5, _⟩ := own_slice ho5) | (go_at_call 17; refine (CR a5 c5 _ hb5 hr5).mono ?_; rintro e w6 ⟨rfl, hb⟩; have hb6 := hb5.trans (hb.mono hb5.size); clear hb) | (go_at_call 11; refine (CH _ hb6).mono ?_; rintro e w7 ⟨rfl, hb⟩; have hb7 := hb6.trans (hb.mono hb6.size); clear hb) | (go_at_call 12; refine (CC _ hb7).mono ?_; rintro e w9 ⟨rfl, hb⟩; have hb9 := hb7.trans (hb.mono hb7.size); clear hb))
        go_ret
        exact ⟨by first | rfl | simp, hbr.trans (hb9.mono hbr.size)⟩
      · skip
        have dle : decide (ex ≤ 72057594037927935) = false := decide_eq_false g2
        rw [show (true && insideB ex) = false by unfold insideB maxN; simp only [dge, dle]; rfl] at CH
        go_wp2_with (first | (go_at_call 20; refine CD.mono ?_; rintro e w5 ⟨v5, rfl, ho5, hb5⟩; obtain ⟨a5, c5, rfl, hr5, _⟩ := own_slice ho5) | (go_at_call 17; refine (CR a5 c5 _ hb5 hr5).mono ?_; rintro e w6 ⟨rfl, hb⟩; have hb6 := hb5.trans (hb.mono hb5.size); clear hb) | (go_at_call 11; refine (CH _ hb6).mono ?_; rintro e w7 ⟨rfl, hb⟩; have hb7 := hb6.trans (hb.mono hb6.size); clear hb) | (go_at_call 12; refine (CC _ hb7).mono ?_; rintro e w9 ⟨rfl, hb⟩; have hb9 := hb7.trans (hb.mono hb7.size); clear hb))
        go_ret
        exact ⟨by first | rfl | simp, hbr.trans (hb9.mono hbr.size)⟩
end Go.Proofs.Ytdlngadcgcgenaa
