/- The document's GoodRanges, CountNums, AllNums. -/
import Derived.Test.YtdlngadcgcgenaaSp12
import Derived.BigRegion
import Derived.RegionTactic
import Derived.BigQuiet
import Derived.Deep.QuietTactic
import Derived.Deep.MidRow
import Derived.LoopTactic
import Derived.BigFrame
import Derived.Laws.OwnMore
import Derived.WalkKit
import Derived.ProofKit
import Derived.Handy
import Derived.Below
import Derived.Lib.Hide
import Derived.IntWalk
import Derived.Outline
import Derived.WalkLawsBesides
import Derived.WalkSpells
namespace Go.Proofs.Ytdlngadcgcgenaa
open Go.RowKit
attribute [local go_sem] strV
set_option linter.unusedVariables false
set_option maxRecDepth 100000 in
set_option maxHeartbeats 6400000 in
theorem all_anyW (a : Option Addr) (n cap : Nat) (l : List (Int × Int)) (most : Int) (w : World) (hr : RowAt w a (l.flatMap rgL)) (hn : l.length = n) (hm : n ≤ maxLen) (hmost : most ≤ 1000) :
    Calls Try.prog 14 #[.slice a n cap, .int .i64 most] w fun e w' => ∃ v, e = .returned v ∧ w'.ownsRow w.heap.size 3 1 v (if goodR l = true then (allR l).take most.toNat else []).length ((if goodR l = true then (allR l).take most.toNat else []).map (Value.int .i64)) ∧ Below w.heap.size w w' := by
  have CG := fun W (hb : Below w.heap.size w W) => good_any a n cap l W (hr.below hb) hn hm
  obtain ⟨gd, hgd⟩ : ∃ r, goodR l = r := ⟨_, rfl⟩
  simp only [hgd] at CG ⊢
  have HGD := Lib.hid hgd
  unfold maxLen at hm
  have HN := Lib.hid hn
  clear hgd hn
  cases gd
  · simp only [Bool.false_eq_true, if_false]
    go_enter Try.func14, Try.ntmps14
    go_wp2_with (go_at_call 9; refine (CG _ (Below.refl _ _)).mono ?_; rintro e w2 ⟨rfl, hb⟩)
    go_ret
    exact ⟨_, rfl, World.ownsRow_nil _ _ _ _, hb⟩
  simp only [if_true]
  obtain ⟨M, hM⟩ : ∃ M, most.toNat = M := ⟨_, rfl⟩
  simp only [hM]
  have hM3 : M ≤ 1000 := by omega
  have hMs : ∀ q : Nat, decide ((q : Int) < most) = decide (q < M) := fun q => by rw [decide_eq_decide]; omega
  have HMS := Lib.hid hMs
  obtain ⟨i0, hi, hzI, hsI, hbI⟩ := info_parts Try.infoI
  clear hM hMs
  go_enter Try.func14, Try.ntmps14
  go_upto_region 5 with (go_at_call 9; refine (CG _ (Below.refl _ _)).mono ?_; rintro e w2 ⟨rfl, hbel⟩)
  go_loopw [5, 14] (fun v i wr => ∃ k : Nat, k ≤ n ∧ i = .int .i64 k ∧ wr.ownsRow w.heap.size 3 1 v ((allR (l.take k)).take M).length (((allR (l.take k)).take M).map (Value.int .i64)) ∧ w.heap.size ≤ wr.heap.size ∧ Below w.heap.size w wr) (fun _ i _ => n - (intOf i).toNat)
  case atStart => exact ⟨0, Nat.zero_le _, rfl, by simpa [allR] using World.ownsRow_nil _ _ _ _, hbel.size, hbel⟩
  case round =>
    clear hbel
    obtain ⟨k, hk, rfl, hown, hsz, hbel⟩ := hrel
    by_cases hlt : k < n
    rotate_left
    · have d9 : decide ((k : Int) < (n : Int)) = false := decide_eq_false (by omega)
      have d9n : decide (k < n) = false := decide_eq_false hlt
      rw [List.take_of_length_le (l := l) (i := k) (by rw [HN.out]; omega)] at hown
      go_wp2
      go_ret
      exact ⟨_, rfl, hown, hbel⟩
    have d9 : decide ((k : Int) < (n : Int)) = true := decide_eq_true (by omega)
    have d9n : decide (k < n) = true := decide_eq_true hlt
    have hkl : k < l.length := by rw [HN.out]; exact hlt
    have hat := allR_take hkl
    obtain ⟨b1, o1, rfl, hb1, hg1⟩ := rg_range (hr.below hbel) hkl
    have hkm := List.getElem?_eq_getElem hkl
    have hdr := List.drop_eq_getElem_cons hkl
    obtain ⟨⟨x, y⟩, hxy⟩ : ∃ p, l[k] = p := ⟨_, rfl⟩
    rw [hxy] at hg1 hkm hdr hat
    have hg1 : wr.rangeAt b1 (o1 + k * 2) (#[.int .i64 x, .int .i64 y] : Array Value).toList := hg1
    clear hxy
    have n0 : (0 : Int) ≤ (k : Int) := by omega
    have n1 : (k : Int) < (n : Int) := by omega
    have n2 : ((k : Nat) : Int).toNat = k := by omega
    have hgk := good_take HGD.out hkm
    unfold maxN at hgk
    simp only [] at hgk hat
    obtain ⟨A, hA⟩ : ∃ A, allR (l.take k) = A := ⟨_, rfl⟩
    rw [hA] at hat hown
    have HAT := Lib.hid hat
    clear hkm hdr hA hat
    go_upto_region 7 with (first | (refine wpList_load_mid rfl 62 (.tmp 16) rfl b1 _ rfl ((#[.int .i64 x, .int .i64 y] : Array Value).toList) _ hg1 Try.underlying62 rfl (by rfl) ?_; rw [Array.toArray_toList]) | fail)
    refine wp_nameE _ (fun W6 hX => ?_)
    have hb6 : Below wr.heap.size wr W6 := by rw [hX]; exact Below.alloc (Below.refl _ _) (Nat.le_refl _) _
    have hszg : w.heap.size ≤ wr.heap.size := hbel.size
    have hx6 : W6.heap[wr.heap.size]? = some (.cells #[.int .i64 x, .int .i64 y] 62 (0, 0)) := by rw [hX]; exact heap_push _ _ _
    have hbel := hbel.trans (hb6.mono hbel.size)
    obtain ⟨g6, hg6⟩ : ∃ g, wr.heap.size = g := ⟨_, rfl⟩
    rw [hg6] at hx6 hszg
    simp only [hg6]
    clear hX hg1 hg6
    have c0 : W6.cell? ⟨g6, 0, none⟩ = some (.int .i64 x) := cell_heap hx6 0
    have c1 : W6.cell? ⟨g6, 1, none⟩ = some (.int .i64 y) := cell_heap hx6 1
    have hown := own_kept9 hown hb6
    have hsz := Nat.le_trans hsz hb6.size
    have hlx : g6 < W6.heap.size := row_lt hx6
    have hgl : w.heap.size ≤ g6 := hszg
    clear hb6
    go_upto_region 8 with fail
    clear c0 c1
    go_loopw [5, 8] (fun v j wr => ∃ t : Int, j = .int .i64 t ∧ x ≤ t ∧ t ≤ y + 1 ∧ wr.ownsRow w.heap.size 3 1 v ((A ++ rngR x (t - 1)).take M).length (((A ++ rngR x (t - 1)).take M).map (Value.int .i64)) ∧ wr.heap[g6]? = some (.cells #[.int .i64 x, .int .i64 y] 62 (0, 0)) ∧ w.heap.size ≤ wr.heap.size ∧ Below w.heap.size w wr) (fun _ j _ => (y + 1 - intOf j).toNat)
    case atStart => exact ⟨x, rfl, by omega, by omega, by rw [rngR_nil (by omega), List.append_nil]; exact hown, hx6, hsz, hbel⟩
    case round =>
      clear hown hx6 hsz hbel
      obtain ⟨t, rfl, ht1, ht2, hown, hx6, hsz, hbel⟩ := hrel
      have c0 : wr.cell? ⟨g6, 0, none⟩ = some (.int .i64 x) := cell_heap hx6 0
      have c1 : wr.cell? ⟨g6, 1, none⟩ = some (.int .i64 y) := cell_heap hx6 1
      obtain ⟨a5, c5, rfl, _⟩ := own_slice hown
      obtain ⟨Q, hQ⟩ : ∃ Q, (A ++ rngR x (t - 1)).take M = Q := ⟨_, rfl⟩
      rw [hQ] at hown
      simp only [hQ]
      have HQ := Lib.hid hQ
      have hQM : Q.length ≤ M := by rw [← hQ, List.length_take]; omega
      have hdm := HMS.out Q.length
      obtain ⟨q, hq⟩ : ∃ q, Q.length = q := ⟨_, rfl⟩
      rw [hq] at hQM hdm
      simp only [hq] at hown ⊢
      have HLQ := Lib.hid hq
      clear hQ hq
      by_cases hty : t ≤ y
      rotate_left
      · have f1 : decide (t ≤ y) = false := decide_eq_false hty
        obtain rfl : t = y + 1 := by omega
        have hfu : (A ++ rngR x y).take M = Q := by rw [← HQ.out, show y + 1 - 1 = y by omega]
        go_wp2
        go_roundw
        case rel => exact ⟨k + 1, by omega, by go_num, by rw [HAT.out, hfu, HLQ.out]; exact hown, hsz, hbel⟩
        case measure => (simp [intOf]) <;> omega
      have f1 : decide (t ≤ y) = true := decide_eq_true hty
      by_cases hqm : q < M
      rotate_left
      · have f2 : decide ((q : Int) < most) = false := by rw [hdm]; exact decide_eq_false hqm
        have hfu : Q = (A ++ rngR x y).take M := by
          have e : rngR x y = rngR x (t - 1) ++ rngR t y := rngR_app ht1 ht2
          rw [e, ← List.append_assoc, take_full (by rw [HQ.out, HLQ.out]; exact hqm), HQ.out]
        go_wp2
        go_roundw
        case rel => exact ⟨k + 1, by omega, by go_num, by rw [HAT.out, ← hfu, HLQ.out]; exact hown, hsz, hbel⟩
        case measure => (simp [intOf]) <;> omega
      have f2 : decide ((q : Int) < most) = true := by rw [hdm]; exact decide_eq_true hqm
      have hst : (A ++ rngR x t).take M = Q ++ [t] := by
        rw [rngR_snoc ht1, ← List.append_assoc, take_step (by rw [HQ.out, HLQ.out]; exact hqm), HQ.out]
      have HST := Lib.hid hst
      clear hst hdm
      have hb5 : Below wr.heap.size wr (wr.alloc (.cells #[.int .i64 t] 3)) := Below.alloc (Below.refl _ _) (Nat.le_refl _) _
      have hx7 := cells_of hx6 hb5 (row_lt hx6)
      go_wp2_with (at_builtin; refine wpList_append_own_at _ rfl (.tmp 32) (.tmp 34) 29 rfl w.heap.size 3 i0 (.int .i64 0) 1 8 Try.underlying29 hi hzI hsI hbI rfl (by decide) _ _ _ rfl (own_kept9 hown hb5) ⟨wr.heap.size, 0, none⟩ 1 1 [.int .i64 t] rfl rfl (cell_one_new _ _ _) (fun u hu => by rw [List.mem_singleton.1 hu]; rfl) (by unfold maxLen; omega) (by omega) (Nat.le_trans hsz hb5.size) ?_; intro v9 w9 hown9 hgr9 _ hat9)
      go_roundw
      case rel => exact ⟨t + 1, by go_num, by omega, by omega, by rw [show t + 1 - 1 = t by omega, HST.out, List.length_append, HLQ.out, List.map_append]; exact hown9, grown_at hgr9 hx7 (fun e => absurd (own_tagS hown e.symm hx6) (by decide)), Nat.le_trans (Nat.le_trans hsz hb5.size) hgr9.size, (hbel.trans (hb5.mono hbel.size)).grown hgr9 (Nat.le_trans hbel.size hb5.size) (fun j hj => (hown.lt j hj).1)⟩
      case measure => (simp [intOf]) <;> omega
set_option maxRecDepth 100000 in
set_option maxHeartbeats 3200000 in
theorem countNums_any (a : Option Addr) (n cap : Nat) (l : List (Int × Int)) (w : World) (hr : RowAt w a (l.flatMap rgL)) (hn : l.length = n) (hm : n ≤ 100000) (hgd : goodR l = true) :
    Calls Try.prog 25 #[.slice a n cap] w fun e w' => e = .returned (.int .i64 (countR l)) ∧ Below w.heap.size w w' := by
  have HGD := Lib.hid hgd
  have HN := Lib.hid hn
  clear hgd hn
  go_enter Try.func25, Try.ntmps25
  go_upto_region 3 with fail
  go_loopw [3, 4] (fun v i wr => ∃ k : Nat, k ≤ n ∧ i = .int .i64 k ∧ v = .int .i64 (countR (l.take k)) ∧ Below w.heap.size w wr) (fun _ i _ => n - (intOf i).toNat)
  case atStart => exact ⟨0, Nat.zero_le _, rfl, rfl, Below.refl _ _⟩
  case round =>
    obtain ⟨k, hk, rfl, rfl, hbel⟩ := hrel
    by_cases hlt : k < n
    rotate_left
    · have d9 : decide ((k : Int) < (n : Int)) = false := decide_eq_false (by omega)
      have d9n : decide (k < n) = false := decide_eq_false hlt
      have hll := List.take_of_length_le (l := l) (i := k) (by rw [HN.out]; omega)
      go_wp2
      go_ret
      exact ⟨by first | rfl | simp [hll], hbel⟩
    have d9 : decide ((k : Int) < (n : Int)) = true := decide_eq_true (by omega)
    have d9n : decide (k < n) = true := decide_eq_true hlt
    have hkl : k < l.length := by rw [HN.out]; exact hlt
    obtain ⟨b1, o1, rfl, hb1, hg1⟩ := rg_range (hr.below hbel) hkl
    have hkm := List.getElem?_eq_getElem hkl
    have hdr := List.drop_eq_getElem_cons hkl
    have hct := countR_take hkl
    have hbd := good_snoc hkl HGD.out
    obtain ⟨⟨x, y⟩, hxy⟩ : ∃ p, l[k] = p := ⟨_, rfl⟩
    rw [hxy] at hg1 hkm hdr hct hbd
    have k0 : wr.cell? ⟨b1, o1 + k * 2, none⟩ = some (.int .i64 x) := hg1 0 _ rfl
    have k1 : wr.cell? ⟨b1, o1 + k * 2 + 1, none⟩ = some (.int .i64 y) := hg1 1 _ rfl
    have n0 : (0 : Int) ≤ (k : Int) := by omega
    have n1 : (k : Int) < (n : Int) := by omega
    have n2 : ((k : Nat) : Int).toNat = k := by omega
    have hgk := good_take HGD.out hkm
    unfold maxN at hgk
    simp only [] at hgk hct hbd
    obtain ⟨C, hC⟩ : ∃ C, countR (l.take k) = C := ⟨_, rfl⟩
    rw [hC] at hct hbd
    simp only [hC]
    have HCT := Lib.hid hct
    have b1' : -9223372036854775808 ≤ y - x := by omega
    have b2' : y - x ≤ 72057594037927935 := by omega
    have b3' : 0 ≤ C := hbd.1
    have b4' : C ≤ x := by omega
    clear hkm hdr hC hct hg1 hxy
    go_upto_region 5 with fail
    go_quiet (fail)
    go_wp2
    go_roundw
    case rel => exact ⟨k + 1, by omega, by go_num, by rw [HCT.out, show C + (y - x + 1) = C + (y - x + 1) from rfl], hbel.trans ((drewN_below _ _).mono hbel.size)⟩
    case measure => (simp [intOf]) <;> omega
set_option maxRecDepth 100000 in
set_option maxHeartbeats 6400000 in
theorem refGood_any (a : Option Addr) (n cap : Nat) (l : List (Int × Int)) (w : World) (hr : RowAt w a (l.flatMap rgL)) (hn : l.length = n) (hm : n ≤ 100000) :
    Calls Try.prog 21 #[.slice a n cap] w fun e w' => e = .returned (.bool (goodR l)) ∧ Below w.heap.size w w' := by
  obtain ⟨r, hr9⟩ : ∃ r, goodR l = r := ⟨_, rfl⟩
  rw [hr9]
  have HR := Lib.hid hr9
  have HN := Lib.hid hn
  clear hr9 hn
  go_enter Try.func21, Try.ntmps21
  go_upto_region 2 with fail
  go_loopw [3] (fun i wr => ∃ (k : Nat) (L : Int), k ≤ n ∧ i = .int .i64 k ∧ ((k = 0 ∧ L = -2) ∨ ∃ j p, k = j + 1 ∧ l[j]? = some (p, L)) ∧ -2 ≤ L ∧ L ≤ 72057594037927935 ∧ Hid (goodFrom L (l.drop k) = r) ∧ Below w.heap.size w wr) (fun i _ => n - (intOf i).toNat)
  case atStart => exact ⟨0, -2, Nat.zero_le _, rfl, .inl ⟨rfl, rfl⟩, by omega, by omega, Lib.hid HR.out, Below.refl _ _⟩
  case round =>
    obtain ⟨k, L, hk, rfl, hL, hL1, hL2, HG, hbel⟩ := hrel
    by_cases hlt : k < n
    rotate_left
    · have d9 : decide ((k : Int) < (n : Int)) = false := decide_eq_false (by omega)
      have d9n : decide (k < n) = false := decide_eq_false hlt
      obtain rfl : r = true := by rw [← HG.out, List.drop_of_length_le (by rw [HN.out]; omega)]; rfl
      go_wp2
      go_ret
      exact ⟨by first | rfl | simp, hbel⟩
    have d9 : decide ((k : Int) < (n : Int)) = true := decide_eq_true (by omega)
    have d9n : decide (k < n) = true := decide_eq_true hlt
    have hkl : k < l.length := by rw [HN.out]; exact hlt
    obtain ⟨b1, o1, rfl, hb1, hg1⟩ := rg_range (hr.below hbel) hkl
    have hkm := List.getElem?_eq_getElem hkl
    have hdr := List.drop_eq_getElem_cons hkl
    obtain ⟨⟨x, y⟩, hxy⟩ : ∃ p, l[k] = p := ⟨_, rfl⟩
    rw [hxy] at hg1 hkm hdr 
    have k0 : wr.cell? ⟨b1, o1 + k * 2, none⟩ = some (.int .i64 x) := hg1 0 _ rfl
    have k1 : wr.cell? ⟨b1, o1 + k * 2 + 1, none⟩ = some (.int .i64 y) := hg1 1 _ rfl
    have n0 : (0 : Int) ≤ (k : Int) := by omega
    have n1 : (k : Int) < (n : Int) := by omega
    have n2 : ((k : Nat) : Int).toNat = k := by omega
    have HG : Hid (goodFrom L ((x, y) :: l.drop (k + 1)) = r) := Lib.hid (by rw [← hdr]; exact HG.out)
    have HKM := Lib.hid hkm
    clear hkm hdr hg1 hxy
    by_cases h1 : x < 0
    · have dh1 : decide (x < 0) = true := decide_eq_true h1
      obtain rfl : r = false := by rw [← HG.out]; cases hgf : goodFrom L ((x, y) :: l.drop (k + 1)) with
        | false => rfl
        | true => have := (goodFrom_cons.1 hgf).1; unfold maxN at this; simp only [] at this; omega
      go_upto_region 4 with fail
      go_quiet (fail)
      go_wp2
      go_ret
      exact ⟨by first | rfl | simp, hbel.trans ((drewN_below _ _).mono hbel.size)⟩
    have dh1 : decide (x < 0) = false := decide_eq_false h1
    by_cases h2 : y < x
    · have dh2 : decide (y < x) = true := decide_eq_true h2
      obtain rfl : r = false := by rw [← HG.out]; cases hgf : goodFrom L ((x, y) :: l.drop (k + 1)) with
        | false => rfl
        | true => have := (goodFrom_cons.1 hgf).1; unfold maxN at this; simp only [] at this; omega
      go_upto_region 4 with fail
      go_quiet (fail)
      go_wp2
      go_ret
      exact ⟨by first | rfl | simp, hbel.trans ((drewN_below _ _).mono hbel.size)⟩
    have dh2 : decide (y < x) = false := decide_eq_false h2
    by_cases h3 : 72057594037927935 < y
    · have dh3 : decide (72057594037927935 < y) = true := decide_eq_true h3
      obtain rfl : r = false := by rw [← HG.out]; cases hgf : goodFrom L ((x, y) :: l.drop (k + 1)) with
        | false => rfl
        | true => have := (goodFrom_cons.1 hgf).1; unfold maxN at this; simp only [] at this; omega
      go_upto_region 4 with fail
      go_quiet (fail)
      go_wp2
      go_ret
      exact ⟨by first | rfl | simp, hbel.trans ((drewN_below _ _).mono hbel.size)⟩
    have dh3 : decide (72057594037927935 < y) = false := decide_eq_false h3
    rcases hL with ⟨hk0, hL0⟩ | ⟨j, p, rfl, hj⟩
    · have dk : decide ((0 : Int) < (k : Int)) = false := decide_eq_false (by omega)
      have dk2 : decide (0 < k) = false := decide_eq_false (by omega)
      have hLx : ¬ x < L + 2 := by omega
      clear hk0 hL0
      have HG2 := Lib.hid (show goodFrom y (l.drop (k + 1)) = r by
        have h := HG.out
        rw [← h]
        show _ = (if x < 0 ∨ y < x ∨ maxN < y ∨ x < L + 2 then false else goodFrom y (l.drop (k + 1)))
        rw [if_neg (by unfold maxN; omega)])
      go_upto_region 4 with fail
      go_quiet (fail)
      go_wp2
      go_roundw
      case rel => exact ⟨k + 1, y, by omega, by go_num, .inr ⟨k, x, rfl, HKM.out⟩, by omega, by omega, HG2, hbel.trans ((drewN_below _ _).mono hbel.size)⟩
      case measure => (simp [intOf]) <;> omega
    have hjl : j < l.length := by omega
    obtain ⟨b2, o2, e2, _, hg2⟩ := rg_range (hr.below hbel) hjl
    simp only [Option.some.injEq, Addr.mk.injEq, and_true] at e2
    obtain ⟨rfl, rfl⟩ := e2
    rw [show l[j] = (p, L) from (List.getElem?_eq_some_iff.1 hj).2] at hg2
    have k2 : wr.cell? ⟨b1, o1 + j * 2 + 1, none⟩ = some (.int .i64 L) := hg2 1 _ rfl
    have dk : decide ((0 : Int) < ((j + 1 : Nat) : Int)) = true := decide_eq_true (by omega)
    have dk2 : decide ((0 : Int) < (j : Int) + 1) = true := decide_eq_true (by omega)
    have j1 : (j : Int) + 1 - 1 = (j : Int) := by omega
    have j2 : ((j + 1 : Nat) : Int) - 1 = (j : Int) := by omega
    have j3 : ((j : Nat) : Int).toNat = j := by omega
    have j4 : (0 : Int) ≤ (j : Int) := by omega
    have j5 : (j : Int) < (n : Int) := by omega
    clear hg2 hj
    by_cases h4 : x - L < 2
    · have dh4 : decide (x - L < 2) = true := decide_eq_true h4
      obtain rfl : r = false := by rw [← HG.out]; cases hgf : goodFrom L ((x, y) :: l.drop (j + 1 + 1)) with
        | false => rfl
        | true => have := (goodFrom_cons.1 hgf).1; unfold maxN at this; simp only [] at this; omega
      go_upto_region 4 with fail
      go_quiet (fail)
      go_wp2
      go_ret
      exact ⟨by first | rfl | simp, hbel.trans ((drewN_below _ _).mono hbel.size)⟩
    have dh4 : decide (x - L < 2) = false := decide_eq_false h4
    have HG2 := Lib.hid (show goodFrom y (l.drop (j + 1 + 1)) = r by
      have h := HG.out
      rw [← h]
      show _ = (if x < 0 ∨ y < x ∨ maxN < y ∨ x < L + 2 then false else goodFrom y (l.drop (j + 1 + 1)))
      rw [if_neg (by unfold maxN; omega)])
    go_upto_region 4 with fail
    go_quiet (fail)
    go_wp2
    go_roundw
    case rel => exact ⟨j + 1 + 1, y, by omega, by go_num, .inr ⟨j + 1, x, rfl, HKM.out⟩, by omega, by omega, HG2, hbel.trans ((drewN_below _ _).mono hbel.size)⟩
    case measure => (simp [intOf]) <;> omega
set_option maxRecDepth 100000 in
set_option maxHeartbeats 6400000 in
theorem allNums_any (a : Option Addr) (n cap : Nat) (l : List (Int × Int)) (most : Int) (w : World) (hr : RowAt w a (l.flatMap rgL)) (hn : l.length = n) (hm : n ≤ 100000) (hmost : most ≤ 1000) (hgd : goodR l = true) :
    Calls Try.prog 27 #[.slice a n cap, .int .i64 most] w fun e w' => ∃ v, e = .returned v ∧ w'.ownsRow w.heap.size 3 1 v ((allR l).take most.toNat).length (((allR l).take most.toNat).map (Value.int .i64)) ∧ Below w.heap.size w w' := by
  have HGD := Lib.hid hgd
  have HN := Lib.hid hn
  clear hgd hn
  obtain ⟨M, hM⟩ : ∃ M, most.toNat = M := ⟨_, rfl⟩
  simp only [hM]
  have hM3 : M ≤ 1000 := by omega
  have hMs : ∀ q : Nat, decide ((q : Int) < most) = decide (q < M) := fun q => by rw [decide_eq_decide]; omega
  have HMS := Lib.hid hMs
  obtain ⟨i0, hi, hzI, hsI, hbI⟩ := info_parts Try.infoI
  clear hM hMs
  go_enter Try.func27, Try.ntmps27
  go_upto_region 3 with fail
  go_loopw [5, 6] (fun v i wr => ∃ k : Nat, k ≤ n ∧ i = .int .i64 k ∧ wr.ownsRow w.heap.size 3 1 v ((allR (l.take k)).take M).length (((allR (l.take k)).take M).map (Value.int .i64)) ∧ Below w.heap.size w wr) (fun _ i _ => n - (intOf i).toNat)
  case atStart => exact ⟨0, Nat.zero_le _, rfl, by simpa [allR] using World.ownsRow_nil _ _ _ _, Below.refl _ _⟩
  case round =>
    obtain ⟨k, hk, rfl, hown, hbel⟩ := hrel
    by_cases hlt : k < n
    rotate_left
    · have d9 : decide ((k : Int) < (n : Int)) = false := decide_eq_false (by omega)
      have d9n : decide (k < n) = false := decide_eq_false hlt
      rw [List.take_of_length_le (l := l) (i := k) (by rw [HN.out]; omega)] at hown
      go_wp2
      go_ret
      exact ⟨_, rfl, hown, hbel⟩
    have d9 : decide ((k : Int) < (n : Int)) = true := decide_eq_true (by omega)
    have d9n : decide (k < n) = true := decide_eq_true hlt
    have hkl : k < l.length := by rw [HN.out]; exact hlt
    obtain ⟨b1, o1, rfl, hb1, hg1⟩ := rg_range (hr.below hbel) hkl
    have hkm := List.getElem?_eq_getElem hkl
    have hdr := List.drop_eq_getElem_cons hkl
    have hat := allR_take hkl
    obtain ⟨⟨x, y⟩, hxy⟩ : ∃ p, l[k] = p := ⟨_, rfl⟩
    rw [hxy] at hg1 hkm hdr hat
    have k0 : wr.cell? ⟨b1, o1 + k * 2, none⟩ = some (.int .i64 x) := hg1 0 _ rfl
    have k1 : wr.cell? ⟨b1, o1 + k * 2 + 1, none⟩ = some (.int .i64 y) := hg1 1 _ rfl
    have n0 : (0 : Int) ≤ (k : Int) := by omega
    have n1 : (k : Int) < (n : Int) := by omega
    have n2 : ((k : Nat) : Int).toNat = k := by omega
    have hgk := good_take HGD.out hkm
    unfold maxN at hgk
    simp only [] at hgk hat
    obtain ⟨A, hA⟩ : ∃ A, allR (l.take k) = A := ⟨_, rfl⟩
    rw [hA] at hat hown
    have HAT := Lib.hid hat
    have HXY := Lib.hid hxy
    have hsw := hbel.size
    clear hkm hdr hA hat hxy
    go_upto_region 6 with fail
    clear k0 k1
    obtain ⟨wi, hwi⟩ : ∃ W, wr = W := ⟨_, rfl⟩
    rw [hwi] at hbel hown hg1 hb1 hsw
    simp only [hwi]
    clear hwi
    go_loopw [5, 7] (fun v j wr => ∃ t : Int, j = .int .i64 t ∧ x ≤ t ∧ t ≤ y + 1 ∧ wr.ownsRow w.heap.size 3 1 v ((A ++ rngR x (t - 1)).take M).length (((A ++ rngR x (t - 1)).take M).map (Value.int .i64)) ∧ Below w.heap.size w wr) (fun _ j _ => (y + 1 - intOf j).toNat)
    case atStart => exact ⟨x, rfl, by omega, by omega, by rw [rngR_nil (by omega), List.append_nil]; exact hown, hbel⟩
    case round =>
      clear hown hbel hg1
      obtain ⟨t, rfl, ht1, ht2, hown, hbel⟩ := hrel
      have hkl2 : k < l.length := by rw [HN.out]; exact hlt
      obtain ⟨b2, o2, e2, hb2, hg2⟩ := rg_range (hr.below hbel) hkl2
      simp only [Option.some.injEq, Addr.mk.injEq, and_true] at e2
      obtain ⟨rfl, rfl⟩ := e2
      rw [HXY.out] at hg2
      have c1 : wr.cell? ⟨b1, o1 + k * 2 + 1, none⟩ = some (.int .i64 y) := hg2 1 _ rfl
      clear hg2
      obtain ⟨a5, c5, rfl, _⟩ := own_slice hown
      obtain ⟨Q, hQ⟩ : ∃ Q, (A ++ rngR x (t - 1)).take M = Q := ⟨_, rfl⟩
      rw [hQ] at hown
      simp only [hQ]
      have HQ := Lib.hid hQ
      have hQM : Q.length ≤ M := by rw [← hQ, List.length_take]; omega
      have hdm := HMS.out Q.length
      obtain ⟨q, hq⟩ : ∃ q, Q.length = q := ⟨_, rfl⟩
      rw [hq] at hQM hdm
      simp only [hq] at hown ⊢
      have HLQ := Lib.hid hq
      clear hQ hq
      by_cases hty : t ≤ y
      rotate_left
      · have f1 : decide (t ≤ y) = false := decide_eq_false hty
        obtain rfl : t = y + 1 := by omega
        have hfu : (A ++ rngR x y).take M = Q := by rw [← HQ.out, show y + 1 - 1 = y by omega]
        go_wp2
        go_roundw
        case rel => exact ⟨k + 1, by omega, by go_num, by rw [HAT.out, hfu, HLQ.out]; exact hown, hbel⟩
        case measure => (simp [intOf]) <;> omega
      have f1 : decide (t ≤ y) = true := decide_eq_true hty
      by_cases hqm : q < M
      rotate_left
      · have f2 : decide ((q : Int) < most) = false := by rw [hdm]; exact decide_eq_false hqm
        have hfu : Q = (A ++ rngR x y).take M := by
          have e : rngR x y = rngR x (t - 1) ++ rngR t y := rngR_app ht1 ht2
          rw [e, ← List.append_assoc, take_full (by rw [HQ.out, HLQ.out]; exact hqm), HQ.out]
        go_wp2
        go_roundw
        case rel => exact ⟨k + 1, by omega, by go_num, by rw [HAT.out, ← hfu, HLQ.out]; exact hown, hbel⟩
        case measure => (simp [intOf]) <;> omega
      have f2 : decide ((q : Int) < most) = true := by rw [hdm]; exact decide_eq_true hqm
      have hst : (A ++ rngR x t).take M = Q ++ [t] := by
        rw [rngR_snoc ht1, ← List.append_assoc, take_step (by rw [HQ.out, HLQ.out]; exact hqm), HQ.out]
      have HST := Lib.hid hst
      clear hst hdm
      have hb5 : Below wr.heap.size wr (wr.alloc (.cells #[.int .i64 t] 3)) := Below.alloc (Below.refl _ _) (Nat.le_refl _) _
      have hown5 := own_kept9 hown hb5
      go_wp2_with (at_builtin; refine wpList_append_own_at _ rfl (.tmp 34) (.tmp 36) 29 rfl w.heap.size 3 i0 (.int .i64 0) 1 8 Try.underlying29 hi hzI hsI hbI rfl (by decide) _ _ _ rfl hown5 ⟨wr.heap.size, 0, none⟩ 1 1 [.int .i64 t] rfl rfl (cell_one_new _ _ _) (fun u hu => by rw [List.mem_singleton.1 hu]; rfl) (by unfold maxLen; omega) (by omega) (Nat.le_trans hbel.size hb5.size) ?_; intro v9 w9 hown9 hgr9 _ hat9)
      go_roundw
      case rel => exact ⟨t + 1, by go_num, by omega, by omega, by rw [show t + 1 - 1 = t by omega, HST.out, List.length_append, HLQ.out, List.map_append]; exact hown9, (hbel.trans (hb5.mono hbel.size)).grown hgr9 (Nat.le_trans hbel.size hb5.size) (fun j hj => (hown5.lt j hj).1)⟩
      case measure => (simp [intOf]) <;> omega
end Go.Proofs.Ytdlngadcgcgenaa
