/- What the document's Make makes. -/
import Derived.Test.YtfikbaoiialfeaaDoorPt2
import Derived.BigRegion
import Derived.RegionTactic
import Derived.BigQuiet
import Derived.Deep.QuietTactic
import Derived.Deep.MidRow
import Derived.LoopTactic
import Derived.BigFrame
import Derived.Maps.AppendAt
import Derived.OwnWalk
import Derived.WalkKit
import Derived.ProofKit
import Derived.Handy
import Derived.Below
import Derived.Lib.Hide
import Derived.IntWalk
import Derived.Outline
import Derived.WalkLawsBesides
import Derived.WalkSpells
namespace Go.Proofs.YtfikbaoiialfeaaDoor
open Go.RowKit
attribute [local go_sem] strV
set_option linter.unusedVariables false
theorem placeL_stop {l : List Pr} {key : ByteArray} {k : Nat} {p : Pr} (hso : sortedL l) (hk : k < l.length) (h1 : ∀ (t : Nat) q, t < k → l[t]? = some q → lessK q.k key = true) (hp : l[k]? = some p) (h2 : lessK p.k key = false) : placeL l key = k :=
  placeL_at (by omega) h1 (fun t q ht hq => by
    rcases Nat.lt_or_ge k t with h | h
    · cases h9 : lessK q.k key with
      | false => rfl
      | true => rw [lessK_trans (hso k t p q h hp hq) h9] at h2; cases h2
    · obtain rfl : t = k := by omega
      rw [hp] at hq; cases hq; exact h2)
theorem placeL_end {l : List Pr} {key : ByteArray} (h1 : ∀ (t : Nat) q, t < l.length → l[t]? = some q → lessK q.k key = true) : placeL l key = l.length :=
  placeL_at (Nat.le_refl _) h1 (fun t q ht hq => by have := (List.getElem?_eq_some_iff.1 hq).1; omega)
set_option maxRecDepth 100000 in
set_option maxHeartbeats 25600000 in
theorem refMake_any (a : Option Addr) (n cap : Nat) (l : List Pr) (key : ByteArray) (w : World) (hr : RowAt w a (l.flatMap Pr.cells)) (hn : l.length = n) (hcap : n ≤ cap) (hcm : cap ≤ maxLen) (hn6 : n ≤ 1000000) :
    Calls Tryd.prog 42 #[.slice a n cap, .string key] w (MakePost w l key) := by
  have CG := fun W (hb : Below w.heap.size w W) => refGood_any a n cap l W (hr.below hb) hn hcap hcm
  obtain ⟨gd, hgd⟩ : ∃ b, goodL l = b := ⟨_, rfl⟩
  simp only [hgd] at CG
  have HGD := Lib.hid hgd
  clear hgd
  have hq := heap_push w #[.int .i64 0, .slice none 0 0] 46
  have hb0 : Below w.heap.size w (w.alloc (.cells #[.int .i64 0, .slice none 0 0] 46)) := Below.alloc (Below.refl _ _) (Nat.le_refl _) _
  unfold MakePost
  go_enter Tryd.func42, Tryd.ntmps42
  go_upto_region 1 with fail
  refine wp_nameE _ (fun W1 hX => ?_)
  have y4 : W1.heap[w.heap.size]? = some (.cells #[.int .i64 0, .slice none 0 0] 46 (0, 0)) := by rw [hX]; exact hq
  have hbel : Below w.heap.size w W1 := by rw [hX]; exact hb0
  clear hX hq hb0
  have hy4 := (Array.getElem?_eq_some_iff.1 y4).1
  cases gd
  · go_wp2_with (first | (go_at_call 38; refine (CG _ hbel).mono ?_; rintro e w2 ⟨rfl, hb⟩; have y4 := cells_of y4 hb hy4; have hy4 := Nat.lt_of_lt_of_le hy4 hb.size; have hbel := hbel.trans (hb.mono hbel.size); clear hb) | (refine wpList_storeRowTo (Z := #[.int .i64 0, .slice none 0 0]) rfl (.tmp 4) (.tmp 11) 46 rfl (by kernel_rfl) rfl (by rfl) y4 rfl (pf_oneM _ _ _ _) ?_))
    have hrd := run_loadVar_mid (P := Tryd.prog) _ w.heap.size 0 46 (#[.int .i64 0, .slice none 0 0] : Array Value).toList _ (rangeAt_row5 (setRow_heap _ _ _ _ _ _ y4)) Tryd.underlying46 rfl (by kernel_rfl)
    refine bodyPost_ret (v := .agg #[.int .i64 0, .slice none 0 0]) ?_ rfl ?_
    · simp [results, Tryd.results42, asAddr]
      exact hrd
    exact ⟨none, 0, 0, [], by unfold makeC; rw [HGD.out]; rfl, LvsAt.nil _ _, rfl, Nat.le_refl _, Nat.zero_le _, by unfold makeD; rw [HGD.out]; rfl, below_setRow hbel (Nat.le_refl _) _⟩
  have hso := goodL_sorted HGD.out
  have hft := fun p hp => goodL_fits HGD.out (p := p) hp
  have hft3 : ∀ p ∈ l, p.k.size ≤ 300000 ∧ p.v.size ≤ 300000 := fun p hp => by have := hft p hp; omega
  have CH := fun W (hb : Below w.heap.size w W) => refLeaves_any a n cap l W (hr.below hb) hn hn6 hcap hft3
  have hcm2 : cap ≤ 9223372036854775807 := by unfold maxLen at hcm; omega
  have HMC : Hid (makeC l = (n : Int)) := Lib.hid (by unfold makeC; rw [if_pos HGD.out, hn])
  have HMD : Hid (∀ L, witL n (placeL l key) (foundL l key) = L → makeD l key = L.map (mkD l)) := Lib.hid (fun L h => by unfold makeD; rw [if_pos HGD.out, hn, h])
  have HN := Lib.hid hn
  have HSO := Lib.hid hso
  have HFT := Lib.hid hft3
  clear hso hft hft3 hn
  go_upto_region 4 with (go_at_call 38; refine (CG _ hbel).mono ?_; rintro e w2 ⟨rfl, hb⟩; have y4 := cells_of y4 hb hy4; have hy4 := Nat.lt_of_lt_of_le hy4 hb.size; have hbel := hbel.trans (hb.mono hbel.size); clear hb)
  clear CG
  go_loopw [5] (fun i wr => ∃ k : Nat, k ≤ n ∧ i = .int .i64 k ∧ Hid (∀ (t : Nat) p, t < k → l[t]? = some p → lessK p.k key = true) ∧ wr.heap[w.heap.size]? = some (.cells #[.int .i64 0, .slice none 0 0] 46 (0, 0)) ∧ Below w.heap.size w wr) (fun i _ => n - (intOf i).toNat)
  case atStart => exact ⟨0, Nat.zero_le _, rfl, Lib.hid (fun t p h => by omega), y4, hbel⟩
  case round =>
    clear y4 hbel hy4
    obtain ⟨k, hk, rfl, HA, y4, hbel⟩ := hrel
    have hy4 := (Array.getElem?_eq_some_iff.1 y4).1
    by_cases hlt : k < n
    · have d1 : decide ((k : Int) < (n : Int)) = true := decide_eq_true (by omega)
      have d1n : decide (k < n) = true := decide_eq_true hlt
      have hkl : k < l.length := by rw [HN.out]; exact hlt
      have hab0 := fun W (h : Below w.heap.size w W) => pr_range (hr.below h) hkl
      obtain ⟨b1, o1, ha1, hb1, hg1⟩ := pr_range (hr.below hbel) hkl
      have hkm := List.getElem?_eq_getElem hkl
      obtain ⟨p, hp9⟩ : ∃ p, l[k] = p := ⟨_, rfl⟩
      rw [hp9] at hg1 hkm
      have HKM := Lib.hid hkm
      have n0 : (0 : Int) ≤ (k : Int) := by omega
      have n1 : (k : Int) < (n : Int) := by omega
      have n2 : ((k : Nat) : Int).toNat = k := by omega
      obtain ⟨ls, hls⟩ : ∃ b, lessK p.k key = b := ⟨_, rfl⟩
      have hle : Op.bytesLess p.k.toList key.toList = ls := by rw [ByteArray.toList_eq, ByteArray.toList_eq]; exact hls
      have HLS := Lib.hid hls
      subst ha1
      have q0 : wr.cell? ⟨b1, o1 + k * 2, none⟩ = some (.string p.k) := hg1 0 _ rfl
      clear hls hp9 hkm hg1 hab0
      cases ls
      rotate_left
      · go_wp2
        go_roundw
        case rel => exact ⟨k + 1, by omega, by go_num, Lib.hid (fun t q ht hq => by
            rcases Nat.lt_or_ge t k with h9 | h9
            · exact HA.out t q h9 hq
            · obtain rfl : t = k := by omega
              rw [HKM.out] at hq
              cases hq
              exact HLS.out), y4, hbel⟩
        case measure => (simp [intOf]) <;> omega
      have HPL : Hid (placeL l key = k) := Lib.hid (placeL_stop HSO.out hkl HA.out HKM.out HLS.out)
      go_upto_region 7 with (first | (go_at_call 78; refine (CH _ hbel).mono ?_; rintro e w4 ⟨vh, rfl, hoh, hb⟩; have y4 := cells_of y4 hb hy4; have hbel := hbel.trans (hb.mono hbel.size); have hy4 := Nat.lt_of_lt_of_le hy4 hb.size; clear hb) | (refine wpList_storeRowTo (Z := #[.int .i64 (n : Int), .slice none 0 0]) rfl (.tmp 6) (.tmp 29) 46 rfl (by kernel_rfl) rfl (by rfl) (heap_push _ _ _) rfl (pf_oneM _ _ _ _) ?_))
      refine wp_nameE _ (fun W6 hX => ?_)
      have hb6 : Below w4.heap.size w4 W6 := by rw [hX]; exact below_setRow (Below.alloc (Below.refl _ _) (Nat.le_refl _) _) (Nat.le_refl _) _
      have y6 : W6.heap[w4.heap.size]? = some (.cells #[.int .i64 (n : Int), .slice none 0 0] 46 (0, 0)) := by rw [hX]; exact setRow_heap _ _ _ _ _ _ (heap_push _ _ _)
      clear hX
      have hah0 := fun j hj => (hoh.lt j hj).2
      obtain ⟨ah, ch, rfl, hrh, hh1, hh2⟩ := own_sliceH hoh
      obtain ⟨g6, hg6⟩ : ∃ g, w4.heap.size = g := ⟨_, rfl⟩
      have hah : ∀ b' off sp, ah = some ⟨b', off, sp⟩ → b' ≠ g6 := fun b' off sp e => by
        have := hah0 b' (by rw [e]; rfl)
        omega
      have y4 := cells_of y4 hb6 hy4
      have hbel := hbel.trans (hb6.mono hbel.size)
      have hrh := hrh.below hb6
      have hg46 : w.heap.size < g6 := by rw [← hg6]; exact hy4
      rw [hg6] at y6
      simp only [hg6]
      clear hg6 hb6 hy4 hoh hah0 CH
      have hy6 := (Array.getElem?_eq_some_iff.1 y6).1
      obtain ⟨base, hbase⟩ : ∃ b, W6.heap.size = b := ⟨_, rfl⟩
      have HB := Lib.hid hbase
      have hg6b : g6 < base := by rw [← hbase]; exact hy6
      clear hbase hy6
      have CA := fun (i : Nat) (hi : i < n) W (h1 : Kept g6 W6 W) => leafAt_any _ _ cap l ah ch i W (hr.below (kept_belowM hbel h1 (by omega) (by rw [HB.out]; omega))) HN.out hi hn6 hcap hh1 hh2 (hrh.kept5 h1 hah) HFT.out
      unfold LeafPost at CA
      clear hrh hah
      have q0 : W6.cell? ⟨b1, o1 + k * 2, none⟩ = some (.string p.k) := by
        obtain ⟨b2, o2, e2, _, hg2⟩ := pr_range (hr.below hbel) hkl
        simp only [Option.some.injEq, Addr.mk.injEq, and_true] at e2
        obtain ⟨rfl, rfl⟩ := e2
        have h9 := hg2 0 (.string l[k].k) rfl
        rw [show l[k] = p from Option.some.inj ((List.getElem?_eq_getElem hkl).symm.trans HKM.out)] at h9
        exact h9
      obtain ⟨fd, hfd⟩ : ∃ b, (p.k.toList == key.toList) = b := ⟨_, rfl⟩
      have HFD : Hid (foundL l key = fd) := Lib.hid (by
        unfold foundL
        rw [HPL.out, HKM.out, ← hfd]
        simp only []
        rw [Bool.eq_iff_iff, decide_eq_true_eq, tl_eq])
      obtain ⟨iL, hiL, hzL, hsL, hbL⟩ := info_parts Tryd.infoLf
      cases fd
      · have HWIT : Hid (witL n (placeL l key) (foundL l key) = (if 0 < k then [k - 1] else []) ++ [k]) := Lib.hid (by
          unfold witL
          rw [HFD.out, HPL.out, if_neg (by decide), if_pos hlt])
        go_upto_region 10 with fail
        by_cases hk0 : k = 0
        · have e0 : decide ((0 : Int) < (k : Int)) = false := decide_eq_false (by omega)
          have e0n : decide (0 < k) = false := decide_eq_false (by omega)
          have HW0 : Hid ((if 0 < k then [k - 1] else []) ++ [k] = [k]) := Lib.hid (by rw [if_neg (by omega)]; rfl)
          clear hk0
          obtain ⟨m, xs, sv, HM1, hxl0, HX, y6, hown, hxs, hbw, hKp⟩ : ∃ (m : Nat) (xs : List LeafV) (sv : Value), Hid (m = 0) ∧ xs.length = m ∧ Hid (xs.map LeafV.d = []) ∧ W6.heap[g6]? = some (.cells #[.int .i64 (n : Int), sv] 46 (0, 0)) ∧ W6.ownsRow base 94 4 sv m (xs.flatMap LeafV.cells) ∧ (∀ x ∈ xs, x.held W6 base) ∧ base ≤ W6.heap.size ∧ Kept g6 W6 W6 := ⟨0, [], .slice none 0 0, Lib.hid rfl, rfl, Lib.hid rfl, y6, ⟨rfl, .inl ⟨rfl, rfl⟩⟩, (fun x h => by cases h), by rw [HB.out]; exact Nat.le_refl _, Kept.of (Below.refl _ _)⟩
          have HXL := Lib.hid hxl0
          have hm30 : m ≤ 3 := by rw [HM1.out]; omega
          clear hxl0
          go_upto_region 13 with fail
          refine wp_region_stateG (fun D x W => (D 0 = true → x 0 = .pointer (some ⟨g6, 1, none⟩)) ∧ (D 1 = true → x 1 = sv) ∧ (D 2 = true → x 2 = .slice (some ⟨b1, o1, none⟩) n cap) ∧ (D 3 = true → x 3 = .slice ah n ch) ∧ (D 4 = true → x 4 = .int .i64 (k : Int)) ∧ (D 5 = true → ∃ lf : LeafV, x 5 = .agg lf.cells.toArray ∧ lf.d = (mkD l k) ∧ lf.held W base) ∧ (D 6 = true → D 7 = false → ∃ (lf : LeafV) (g4 : Nat), x 6 = .slice (some ⟨g4, 0, none⟩) 1 1 ∧ W.heap[g4]? = some (.cells lf.cells.toArray 94 (0, 0)) ∧ lf.d = (mkD l k) ∧ lf.held W base ∧ base ≤ g4) ∧ ((D 7 = false → W.ownsRow base 94 4 sv m (xs.flatMap LeafV.cells)) ∧ (D 7 = true → D 6 = true ∧ D 1 = true ∧ ∃ lf : LeafV, W.ownsRow base 94 4 (x 7) (m + 1) (xs.flatMap LeafV.cells ++ lf.cells) ∧ lf.d = (mkD l k) ∧ lf.held W base)) ∧ (D 8 = true → x 8 = .pointer (some ⟨g6, 1, none⟩)) ∧ (D 9 = true → D 7 = true) ∧ W.heap[g6]? = some (.cells #[.int .i64 (n : Int), bif D 9 then x 7 else sv] 46 (0, 0)) ∧ (∀ x ∈ xs, x.held W base) ∧ base ≤ W.heap.size ∧ Kept g6 W6 W) (by kernel_rfl) (by kernel_rfl) (by kernel_rfl) (by kernel_rfl) (fun x => by simp only [fillFrom, Act.put, List.setIfInBounds_toArray, List.set_cons_succ, List.set_cons_zero, Nat.zero_add, Nat.reduceAdd]; rfl) ?_ ?_ ?_
          case refine_1 => exact fun x => ⟨(fun h => by cases h), (fun h => by cases h), (fun h => by cases h), (fun h => by cases h), (fun h => by cases h), (fun h => by cases h), (fun h => by cases h), ⟨fun _ => hown, fun h => by cases h⟩, (fun h => by cases h), (fun h => by cases h), y6, (fun y hy => (hxs y hy).same (SameT.below (Below.refl _ _).drew)), hbw, hKp.drew⟩
          case refine_2 =>
            refine ⟨?_, ?_, ?_, ?_, ?_, ?_, ?_, ?_, ?_, ?_, trivial⟩
            · intro D x w' hD hI hw hcl
              obtain ⟨i0, i1, i2, i3, i4, i5, i6, i7, i8, i9, iG, iX, iS, iK⟩ := hI.out
              clear hw
              go_wp2_with fail
              refine gPost_mk (v := .pointer (some ⟨g6, 1, none⟩)) rfl (by first | rfl | (show Value.pointer _ = Value.pointer _; simp) | (show Value.int .i64 _ = Value.int .i64 _; rw [hsub])) ?_
              exact ⟨⟨(fun _ => rfl), i1, i2, i3, i4, i5, i6, i7, i8, i9, iG, iX, iS, iK⟩⟩
            · intro D x w' hD hI hw hcl
              obtain ⟨i0, i1, i2, i3, i4, i5, i6, i7, i8, i9, iG, iX, iS, iK⟩ := hI.out
              have d0 := i0 (hw 0 rfl)
              have h9 : D 9 = false := by
                cases h : D 9 with
                | false => rfl
                | true => have h9 := (i7.2 (i9 h)).2.1; rw [hD] at h9; cases h9
              rw [h9] at iG
              have iG9 : w'.heap[g6]? = some (.cells #[.int .i64 (n : Int), sv] 46 (0, 0)) := iG
              have q1 := cell_heap iG9 1
              clear hw
              go_wp2_with fail
              refine gPost_mk (v := sv) rfl (by first | rfl | (show Value.pointer _ = Value.pointer _; simp) | (show Value.int .i64 _ = Value.int .i64 _; rw [hsub])) ?_
              exact ⟨⟨i0, (fun _ => rfl), i2, i3, i4, i5, i6, ⟨i7.1, fun h => by obtain ⟨q1, _, q3⟩ := i7.2 h; exact ⟨q1, rfl, q3⟩⟩, i8, i9, (by show _ = some (Obj.cells #[.int .i64 (n : Int), bif D 9 then _ else sv] 46 (0, 0)); rw [h9]; exact iG9), iX, iS, iK⟩⟩
            · intro D x w' hD hI hw hcl
              obtain ⟨i0, i1, i2, i3, i4, i5, i6, i7, i8, i9, iG, iX, iS, iK⟩ := hI.out
              clear hw
              go_wp2_with fail
              refine gPost_mk (v := .slice (some ⟨b1, o1, none⟩) n cap) rfl (by first | rfl | (show Value.pointer _ = Value.pointer _; simp) | (show Value.int .i64 _ = Value.int .i64 _; rw [hsub])) ?_
              exact ⟨⟨i0, i1, (fun _ => rfl), i3, i4, i5, i6, i7, i8, i9, iG, iX, iS, iK⟩⟩
            · intro D x w' hD hI hw hcl
              obtain ⟨i0, i1, i2, i3, i4, i5, i6, i7, i8, i9, iG, iX, iS, iK⟩ := hI.out
              clear hw
              go_wp2_with fail
              refine gPost_mk (v := .slice ah n ch) rfl (by first | rfl | (show Value.pointer _ = Value.pointer _; simp) | (show Value.int .i64 _ = Value.int .i64 _; rw [hsub])) ?_
              exact ⟨⟨i0, i1, i2, (fun _ => rfl), i4, i5, i6, i7, i8, i9, iG, iX, iS, iK⟩⟩
            · intro D x w' hD hI hw hcl
              obtain ⟨i0, i1, i2, i3, i4, i5, i6, i7, i8, i9, iG, iX, iS, iK⟩ := hI.out
              clear hw
              go_wp2_with fail
              refine gPost_mk (v := .int .i64 (k : Int)) rfl (by first | rfl | (show Value.pointer _ = Value.pointer _; simp) | (show Value.int .i64 _ = Value.int .i64 _; rw [hsub])) ?_
              exact ⟨⟨i0, i1, i2, i3, (fun _ => rfl), i5, i6, i7, i8, i9, iG, iX, iS, iK⟩⟩
            · intro D x w' hD hI hw hcl
              obtain ⟨i0, i1, i2, i3, i4, i5, i6, i7, i8, i9, iG, iX, iS, iK⟩ := hI.out
              have d2 := i2 (hw 2 rfl)
              have d3 := i3 (hw 3 rfl)
              have d4 := i4 (hw 4 rfl)
              have CC := CA k (by omega) w' iK
              clear hw
              go_wp2_with (go_at_call 79; refine CC.mono ?_; rintro e wx ⟨lf, rfl, hld, hlh, hbx⟩)
              refine gPost_mk (v := .agg lf.cells.toArray) rfl rfl ?_
              exact ⟨⟨i0, i1, i2, i3, i4, (fun _ => ⟨lf, rfl, hld, hlh.mono iS⟩), (fun h h2 => by obtain ⟨lf, g4, e1, e2, e3, e4, e5⟩ := i6 h h2; exact ⟨lf, g4, e1, cells_of e2 hbx (Array.getElem?_eq_some_iff.1 e2).1, e3, e4.same (SameT.below hbx), e5⟩), ⟨fun h => own_kept9 (i7.1 h) hbx, fun h => by obtain ⟨q1, q2, lf, e1, e2, e3⟩ := i7.2 h; exact ⟨q1, q2, lf, own_kept9 e1 hbx, e2, e3.same (SameT.below hbx)⟩⟩, i8, i9, (cells_of iG hbx (Array.getElem?_eq_some_iff.1 iG).1), (fun y hy => (iX y hy).same (SameT.below hbx)), (Nat.le_trans iS hbx.size), (iK.trans (Kept.of hbx))⟩⟩
            · intro D x w' hD hI hw hcl
              obtain ⟨i0, i1, i2, i3, i4, i5, i6, i7, i8, i9, iG, iX, iS, iK⟩ := hI.out
              obtain ⟨lf, d5, e2, e3⟩ := i5 (hw 5 rfl)
              simp only [d5]
              clear hw
              refine wpList_one rfl (.tmp 73) 44 94 rfl (by rfl) (one_leaf _ rfl _) ?_
              have hbx : Below w'.heap.size w' (w'.alloc (.cells lf.cells.toArray 94)) := Below.alloc (Below.refl _ _) (Nat.le_refl _) _
              refine gPost_mk (v := (.slice (some ⟨w'.heap.size, 0, none⟩) 1 1)) rfl rfl ?_
              exact ⟨⟨i0, i1, i2, i3, i4, (fun h => by obtain ⟨lf, e1, e2, e3⟩ := i5 h; exact ⟨lf, e1, e2, e3.same (SameT.below hbx)⟩), (fun _ _ => ⟨lf, w'.heap.size, rfl, heap_push _ _ _, e2, e3.same (SameT.below hbx), iS⟩), ⟨fun h => own_kept9 (i7.1 h) hbx, fun h => by have := (i7.2 h).1; rw [hD] at this; cases this⟩, i8, i9, (cells_of iG hbx (Array.getElem?_eq_some_iff.1 iG).1), (fun y hy => (iX y hy).same (SameT.below hbx)), (Nat.le_trans iS hbx.size), (iK.trans (Kept.of hbx))⟩⟩
            · intro D x w' hD hI hw hcl
              obtain ⟨i0, i1, i2, i3, i4, i5, i6, i7, i8, i9, iG, iX, iS, iK⟩ := hI.out
              have hw1 := hw 1 rfl
              have hw_b := hw 6 rfl
              have d1 := i1 hw1
              obtain ⟨lf, g4, d6, e2, e3, e4, e5⟩ := i6 hw_b hD
              simp only [d1, d6]
              clear hw
              have hown9 := i7.1 hD
              have hnews : ∀ j u, lf.cells[j]? = some u → w'.cell? ((⟨g4, 0, none⟩ : Addr).add j) = some u := fun j u hj => by
                rw [Addr.add_mid, Nat.zero_add, cell_heap e2, ← hj, List.getElem?_toArray]
              refine wpList_append_own _ rfl (.tmp 69) (.tmp 74) 44 rfl base 94 iL (.agg #[.string ⟨#[]⟩, .string ⟨#[]⟩, .int .i64 0, .slice none 0 0]) 4 64 Tryd.underlying44 hiL hzL hsL hbL rfl (by decide) _ _ _ rfl hown9 ⟨g4, 0, none⟩ 1 1 lf.cells rfl rfl hnews (fun u hu => by simp [LeafV.cells] at hu; rcases hu with rfl | rfl | rfl | rfl <;> rfl) (by unfold maxLen; omega) (by omega) iS ?_
              intro v9 w9 hown10 hgr _
              have hs9 : SameT 25 base w' w9 := SameT.grown hown9 hgr (by decide)
              have h9 : D 9 = false := by
                cases h : D 9 with
                | false => rfl
                | true => have := i9 h; rw [hD] at this; cases this
              have hk9 : Kept g6 W6 w9 := ⟨hgr.os.trans iK.os, hgr.tape.trans iK.tape, hgr.output.trans iK.output, Nat.le_trans iK.size hgr.size, fun j hj hne => (hgr.block j (Nat.lt_of_lt_of_le hj iK.size) (fun e => by have := (hown9.lt j e.symm).1; rw [HB.out] at hj; omega)).trans (iK.block j hj hne)⟩
              have hG9 : w9.heap[g6]? = some (.cells #[.int .i64 (n : Int), sv] 46 (0, 0)) := by
                rw [h9] at iG
                exact (hgr.block g6 (by omega) (fun e => by have := (hown9.lt g6 e.symm).1; omega)).trans iG
              refine gPost_mk (v := v9) rfl rfl ?_
              exact ⟨⟨i0, i1, i2, i3, i4, (fun h => by obtain ⟨lf, e1, e2, e3⟩ := i5 h; exact ⟨lf, e1, e2, e3.same (hs9)⟩), (fun _ h => by cases h), ⟨fun h => (by cases h), fun _ => ⟨hw_b, hw1, lf, hown10, e3, e4.same hs9⟩⟩, i8, (fun _ => rfl), (by show w9.heap[g6]? = some (Obj.cells #[.int .i64 (n : Int), bif D 9 then _ else sv] 46 (0, 0)); rw [h9]; exact hG9), (fun y hy => (iX y hy).same hs9), Nat.le_trans iS hgr.size, hk9⟩⟩
            · intro D x w' hD hI hw hcl
              obtain ⟨i0, i1, i2, i3, i4, i5, i6, i7, i8, i9, iG, iX, iS, iK⟩ := hI.out
              clear hw
              go_wp2_with fail
              refine gPost_mk (v := .pointer (some ⟨g6, 1, none⟩)) rfl (by first | rfl | (show Value.pointer _ = Value.pointer _; simp) | (show Value.int .i64 _ = Value.int .i64 _; rw [hsub])) ?_
              exact ⟨⟨i0, i1, i2, i3, i4, i5, i6, i7, (fun _ => rfl), i9, iG, iX, iS, iK⟩⟩
            · intro D x w' hD hI hw hcl
              obtain ⟨i0, i1, i2, i3, i4, i5, i6, i7, i8, i9, iG, iX, iS, iK⟩ := hI.out
              have hA9 := hw 7 rfl
              have d8 := i8 (hw 8 rfl)
              obtain ⟨qb, q1, lf, e1, e2, e3⟩ := i7.2 hA9
              obtain ⟨a9, c9, d7, _⟩ := own_sliceH e1
              rw [hD] at iG
              have iG : w'.heap[g6]? = some (.cells #[.int .i64 (n : Int), sv] 46 (0, 0)) := iG
              have qk := cell_heap iG 1
              have fk := frozen_heap iG 1
              clear hw
              simp only [d7, d8]
              go_wp2_with fail
              refine gPost_no rfl ?_
              exact ⟨⟨i0, i1, i2, i3, i4, (fun h => by obtain ⟨lf, e1, e2, e3⟩ := i5 h; exact ⟨lf, e1, e2, e3.same (SameT.put hg6b)⟩), (fun _ h2 => by have h9 : D 7 = false := h2; rw [hA9] at h9; cases h9), ⟨fun h2 => (by have h9 : D 7 = false := h2; rw [hA9] at h9; cases h9), fun _ => ⟨qb, q1, lf, own_far e1 (fun j j1 j2 => row_oth' w' g6 1 j _ (by omega)), e2, e3.same (SameT.put hg6b)⟩⟩, i8, (fun _ => hA9), (by show _ = some (Obj.cells #[.int .i64 (n : Int), x 7] 46 (0, 0)); rw [d7]; exact row_put5 iG), (fun y hy => (iX y hy).same (SameT.put hg6b)), (by rw [World.size_setCell]; exact iS), iK.trans ⟨rfl, rfl, rfl, by rw [World.size_setCell]; exact Nat.le_refl _, fun j hj hne => row_oth' w' g6 1 j _ hne⟩⟩⟩
          intro w9 x hI
          obtain ⟨_, _, _, _, _, _, _, iA, _, _, iG, iX, iS, iK⟩ := hI
          obtain ⟨_, _, lf, hownE, hld, hheldE⟩ := iA.2 rfl
          have iG : w9.heap[g6]? = some (.cells #[.int .i64 (n : Int), x 7] 46 (0, 0)) := iG
          have hownE : w9.ownsRow base 94 4 (x 7) (m + 1) (xs.flatMap LeafV.cells ++ lf.cells) := hownE
          clear iA
          have HXE : Hid ((xs ++ [lf]).map LeafV.d = [] ++ [mkD l k]) := Lib.hid (by rw [List.map_append, HX.out, ← hld]; rfl)
          have hownE2 : w9.ownsRow base 94 4 (x 7) (m + 1) ((xs ++ [lf]).flatMap LeafV.cells) := by
            rw [List.flatMap_append, List.flatMap_cons, List.flatMap_nil, List.append_nil]
            exact hownE
          have hxs9 : ∀ y ∈ xs ++ [lf], y.held w9 base := fun y hy => by
            rcases List.mem_append.1 hy with h9 | h9
            · exact iX y h9
            · rw [List.mem_singleton.1 h9]; exact hheldE
          have HXL9 : Hid ((xs ++ [lf]).length = m + 1) := Lib.hid (by rw [List.length_append, HXL.out]; rfl)
          clear hown y6 hxs hKp hownE iX hheldE hld hbw HX HXL
          obtain ⟨sv, hsv⟩ : ∃ v, v = x 7 := ⟨_, rfl⟩
          rw [← hsv] at iG hownE2
          obtain ⟨m2, hm⟩ : ∃ q, q = m + 1 := ⟨_, rfl⟩
          have HXL : Hid ((xs ++ [lf]).length = m2) := Lib.hid (by rw [hm]; exact HXL9.out)
          have hm30 : m2 ≤ 4 := by omega
          rw [← hm] at hownE2
          obtain ⟨zs, hzs⟩ : ∃ q, q = xs ++ [lf] := ⟨_, rfl⟩
          rw [← hzs] at HXE hownE2 hxs9 HXL
          clear hm hzs HXL9
          have y6 := iG
          have hown := hownE2
          have hxs := hxs9
          have HX := HXE
          have hbw := iS
          have hKp := iK
          simp only [← hsv]
          clear iG hownE2 hxs9 HXE iS iK hsv
          obtain ⟨a9, c9, hsv9, hr9, hc1, hc2⟩ := own_sliceH hown
          subst hsv9
          have y4 : w9.heap[w.heap.size]? = some (.cells #[.int .i64 0, .slice none 0 0] 46 (0, 0)) := (hKp.block _ (Array.getElem?_eq_some_iff.1 y4).1 (by omega)).trans y4
          have hbel : Below w.heap.size w w9 := kept_belowM hbel hKp (by omega) (by rw [HB.out]; omega)
          have hheld : lvsHeld w9 base a9 zs := ⟨hr9, own_held hown, hxs⟩
          have HXD : Hid (zs.map LeafV.d = makeD l key) := Lib.hid (by rw [HX.out, HMD.out _ HWIT.out, HW0.out]; rfl)
          go_wp2_with (first | (refine wpList_load_mid rfl 46 (.tmp 6) rfl g6 0 rfl (#[.int .i64 (n : Int), .slice a9 m2 c9] : Array Value).toList _ (rangeAt_row5 y6) Tryd.underlying46 rfl (by kernel_rfl) ?_; rw [Array.toArray_toList]) | (refine wpList_storeRowTo (Z := #[.int .i64 (n : Int), .slice a9 m2 c9]) rfl (.tmp 4) (.tmp 77) 46 rfl (by kernel_rfl) rfl (by rfl) y4 rfl (pf_oneM _ _ _ _) ?_))
          have hrd := run_loadVar_mid (P := Tryd.prog) _ w.heap.size 0 46 (#[.int .i64 (n : Int), .slice a9 m2 c9] : Array Value).toList _ (rangeAt_row5 (setRow_heap _ _ _ _ _ _ y4)) Tryd.underlying46 rfl (by kernel_rfl)
          refine bodyPost_ret (v := .agg #[.int .i64 (n : Int), .slice a9 m2 c9]) ?_ rfl ?_
          · simp [results, Tryd.results42, asAddr]
            exact hrd
          first | exact ⟨a9, m2, c9, zs, by rw [HMC.out], (hheld.same (SameT.setRow (by omega)) (SameT.setRow (by omega))).at, HXL.out, hc1, hc2, HXD.out, below_setRow hbel (Nat.le_refl _) _⟩ | exact ⟨a9, m2, c9, by rw [HMC.out], zs, (hheld.same (SameT.setRow (by omega)) (SameT.setRow (by omega))).at, HXL.out, hc1, hc2, HXD.out, below_setRow hbel (Nat.le_refl _) _⟩
        · have e0 : decide ((0 : Int) < (k : Int)) = true := decide_eq_true (by omega)
          have e0n : decide (0 < k) = true := decide_eq_true (by omega)
          obtain ⟨k9, hk9⟩ : ∃ q, k = q + 1 := ⟨k - 1, by omega⟩
          have HK9 := Lib.hid hk9
          have hk9n : k9 < n := by omega
          have HW0 : Hid ((if 0 < k then [k - 1] else []) ++ [k] = [k9, k]) := Lib.hid (by rw [if_pos (by omega), hk9]; rfl)
          clear hk9 hk0
          obtain ⟨m, xs, sv, HM1, hxl0, HX, y6, hown, hxs, hbw, hKp⟩ : ∃ (m : Nat) (xs : List LeafV) (sv : Value), Hid (m = 0) ∧ xs.length = m ∧ Hid (xs.map LeafV.d = []) ∧ W6.heap[g6]? = some (.cells #[.int .i64 (n : Int), sv] 46 (0, 0)) ∧ W6.ownsRow base 94 4 sv m (xs.flatMap LeafV.cells) ∧ (∀ x ∈ xs, x.held W6 base) ∧ base ≤ W6.heap.size ∧ Kept g6 W6 W6 := ⟨0, [], .slice none 0 0, Lib.hid rfl, rfl, Lib.hid rfl, y6, ⟨rfl, .inl ⟨rfl, rfl⟩⟩, (fun x h => by cases h), by rw [HB.out]; exact Nat.le_refl _, Kept.of (Below.refl _ _)⟩
          have HXL := Lib.hid hxl0
          have hm30 : m ≤ 3 := by rw [HM1.out]; omega
          clear hxl0
          go_upto_region 11 with fail
          refine wp_region_stateG (fun D x W => (D 0 = true → x 0 = .pointer (some ⟨g6, 1, none⟩)) ∧ (D 1 = true → x 1 = sv) ∧ (D 2 = true → x 2 = .slice (some ⟨b1, o1, none⟩) n cap) ∧ (D 3 = true → x 3 = .slice ah n ch) ∧ (D 4 = true → x 4 = .int .i64 (k : Int)) ∧ (D 5 = true → x 5 = .int .i64 (k9 : Int)) ∧ (D 6 = true → ∃ lf : LeafV, x 6 = .agg lf.cells.toArray ∧ lf.d = (mkD l k9) ∧ lf.held W base) ∧ (D 7 = true → D 8 = false → ∃ (lf : LeafV) (g4 : Nat), x 7 = .slice (some ⟨g4, 0, none⟩) 1 1 ∧ W.heap[g4]? = some (.cells lf.cells.toArray 94 (0, 0)) ∧ lf.d = (mkD l k9) ∧ lf.held W base ∧ base ≤ g4) ∧ ((D 8 = false → W.ownsRow base 94 4 sv m (xs.flatMap LeafV.cells)) ∧ (D 8 = true → D 7 = true ∧ D 1 = true ∧ ∃ lf : LeafV, W.ownsRow base 94 4 (x 8) (m + 1) (xs.flatMap LeafV.cells ++ lf.cells) ∧ lf.d = (mkD l k9) ∧ lf.held W base)) ∧ (D 9 = true → x 9 = .pointer (some ⟨g6, 1, none⟩)) ∧ (D 10 = true → D 8 = true) ∧ W.heap[g6]? = some (.cells #[.int .i64 (n : Int), bif D 10 then x 8 else sv] 46 (0, 0)) ∧ (∀ x ∈ xs, x.held W base) ∧ base ≤ W.heap.size ∧ Kept g6 W6 W) (by kernel_rfl) (by kernel_rfl) (by kernel_rfl) (by kernel_rfl) (fun x => by simp only [fillFrom, Act.put, List.setIfInBounds_toArray, List.set_cons_succ, List.set_cons_zero, Nat.zero_add, Nat.reduceAdd]; rfl) ?_ ?_ ?_
          case refine_1 => exact fun x => ⟨(fun h => by cases h), (fun h => by cases h), (fun h => by cases h), (fun h => by cases h), (fun h => by cases h), (fun h => by cases h), (fun h => by cases h), (fun h => by cases h), ⟨fun _ => hown, fun h => by cases h⟩, (fun h => by cases h), (fun h => by cases h), y6, (fun y hy => (hxs y hy).same (SameT.below (Below.refl _ _).drew)), hbw, hKp.drew⟩
          case refine_2 =>
            refine ⟨?_, ?_, ?_, ?_, ?_, ?_, ?_, ?_, ?_, ?_, ?_, trivial⟩
            · intro D x w' hD hI hw hcl
              obtain ⟨i0, i1, i2, i3, i4, i5, i6, i7, i8, i9, i10, iG, iX, iS, iK⟩ := hI.out
              clear hw
              go_wp2_with fail
              refine gPost_mk (v := .pointer (some ⟨g6, 1, none⟩)) rfl (by first | rfl | (show Value.pointer _ = Value.pointer _; simp) | (show Value.int .i64 _ = Value.int .i64 _; rw [hsub])) ?_
              exact ⟨⟨(fun _ => rfl), i1, i2, i3, i4, i5, i6, i7, i8, i9, i10, iG, iX, iS, iK⟩⟩
            · intro D x w' hD hI hw hcl
              obtain ⟨i0, i1, i2, i3, i4, i5, i6, i7, i8, i9, i10, iG, iX, iS, iK⟩ := hI.out
              have d0 := i0 (hw 0 rfl)
              have h10 : D 10 = false := by
                cases h : D 10 with
                | false => rfl
                | true => have h9 := (i8.2 (i10 h)).2.1; rw [hD] at h9; cases h9
              rw [h10] at iG
              have iG9 : w'.heap[g6]? = some (.cells #[.int .i64 (n : Int), sv] 46 (0, 0)) := iG
              have q1 := cell_heap iG9 1
              clear hw
              go_wp2_with fail
              refine gPost_mk (v := sv) rfl (by first | rfl | (show Value.pointer _ = Value.pointer _; simp) | (show Value.int .i64 _ = Value.int .i64 _; rw [hsub])) ?_
              exact ⟨⟨i0, (fun _ => rfl), i2, i3, i4, i5, i6, i7, ⟨i8.1, fun h => by obtain ⟨q1, _, q3⟩ := i8.2 h; exact ⟨q1, rfl, q3⟩⟩, i9, i10, (by show _ = some (Obj.cells #[.int .i64 (n : Int), bif D 10 then _ else sv] 46 (0, 0)); rw [h10]; exact iG9), iX, iS, iK⟩⟩
            · intro D x w' hD hI hw hcl
              obtain ⟨i0, i1, i2, i3, i4, i5, i6, i7, i8, i9, i10, iG, iX, iS, iK⟩ := hI.out
              clear hw
              go_wp2_with fail
              refine gPost_mk (v := .slice (some ⟨b1, o1, none⟩) n cap) rfl (by first | rfl | (show Value.pointer _ = Value.pointer _; simp) | (show Value.int .i64 _ = Value.int .i64 _; rw [hsub])) ?_
              exact ⟨⟨i0, i1, (fun _ => rfl), i3, i4, i5, i6, i7, i8, i9, i10, iG, iX, iS, iK⟩⟩
            · intro D x w' hD hI hw hcl
              obtain ⟨i0, i1, i2, i3, i4, i5, i6, i7, i8, i9, i10, iG, iX, iS, iK⟩ := hI.out
              clear hw
              go_wp2_with fail
              refine gPost_mk (v := .slice ah n ch) rfl (by first | rfl | (show Value.pointer _ = Value.pointer _; simp) | (show Value.int .i64 _ = Value.int .i64 _; rw [hsub])) ?_
              exact ⟨⟨i0, i1, i2, (fun _ => rfl), i4, i5, i6, i7, i8, i9, i10, iG, iX, iS, iK⟩⟩
            · intro D x w' hD hI hw hcl
              obtain ⟨i0, i1, i2, i3, i4, i5, i6, i7, i8, i9, i10, iG, iX, iS, iK⟩ := hI.out
              clear hw
              go_wp2_with fail
              refine gPost_mk (v := .int .i64 (k : Int)) rfl (by first | rfl | (show Value.pointer _ = Value.pointer _; simp) | (show Value.int .i64 _ = Value.int .i64 _; rw [hsub])) ?_
              exact ⟨⟨i0, i1, i2, i3, (fun _ => rfl), i5, i6, i7, i8, i9, i10, iG, iX, iS, iK⟩⟩
            · intro D x w' hD hI hw hcl
              obtain ⟨i0, i1, i2, i3, i4, i5, i6, i7, i8, i9, i10, iG, iX, iS, iK⟩ := hI.out
              have d4 := i4 (hw 4 rfl)
              have hsub : (k : Int) - 1 = ((k9 : Nat) : Int) := by have := HK9.out; omega
              have hs1 : (0 : Int) ≤ (k : Int) - 1 := by have := HK9.out; omega
              have hs2 : (k : Int) - 1 ≤ 9223372036854775807 := by omega
              clear hw
              go_wp2_with fail
              refine gPost_mk (v := .int .i64 (k9 : Int)) rfl (by first | rfl | (show Value.pointer _ = Value.pointer _; simp) | (show Value.int .i64 _ = Value.int .i64 _; rw [hsub])) ?_
              exact ⟨⟨i0, i1, i2, i3, i4, (fun _ => rfl), i6, i7, i8, i9, i10, iG, iX, iS, iK⟩⟩
            · intro D x w' hD hI hw hcl
              obtain ⟨i0, i1, i2, i3, i4, i5, i6, i7, i8, i9, i10, iG, iX, iS, iK⟩ := hI.out
              have d2 := i2 (hw 2 rfl)
              have d3 := i3 (hw 3 rfl)
              have d5 := i5 (hw 5 rfl)
              have CC := CA k9 (by omega) w' iK
              clear hw
              go_wp2_with (go_at_call 79; refine CC.mono ?_; rintro e wx ⟨lf, rfl, hld, hlh, hbx⟩)
              refine gPost_mk (v := .agg lf.cells.toArray) rfl rfl ?_
              exact ⟨⟨i0, i1, i2, i3, i4, i5, (fun _ => ⟨lf, rfl, hld, hlh.mono iS⟩), (fun h h2 => by obtain ⟨lf, g4, e1, e2, e3, e4, e5⟩ := i7 h h2; exact ⟨lf, g4, e1, cells_of e2 hbx (Array.getElem?_eq_some_iff.1 e2).1, e3, e4.same (SameT.below hbx), e5⟩), ⟨fun h => own_kept9 (i8.1 h) hbx, fun h => by obtain ⟨q1, q2, lf, e1, e2, e3⟩ := i8.2 h; exact ⟨q1, q2, lf, own_kept9 e1 hbx, e2, e3.same (SameT.below hbx)⟩⟩, i9, i10, (cells_of iG hbx (Array.getElem?_eq_some_iff.1 iG).1), (fun y hy => (iX y hy).same (SameT.below hbx)), (Nat.le_trans iS hbx.size), (iK.trans (Kept.of hbx))⟩⟩
            · intro D x w' hD hI hw hcl
              obtain ⟨i0, i1, i2, i3, i4, i5, i6, i7, i8, i9, i10, iG, iX, iS, iK⟩ := hI.out
              obtain ⟨lf, d6, e2, e3⟩ := i6 (hw 6 rfl)
              simp only [d6]
              clear hw
              refine wpList_one rfl (.tmp 60) 44 94 rfl (by rfl) (one_leaf _ rfl _) ?_
              have hbx : Below w'.heap.size w' (w'.alloc (.cells lf.cells.toArray 94)) := Below.alloc (Below.refl _ _) (Nat.le_refl _) _
              refine gPost_mk (v := (.slice (some ⟨w'.heap.size, 0, none⟩) 1 1)) rfl rfl ?_
              exact ⟨⟨i0, i1, i2, i3, i4, i5, (fun h => by obtain ⟨lf, e1, e2, e3⟩ := i6 h; exact ⟨lf, e1, e2, e3.same (SameT.below hbx)⟩), (fun _ _ => ⟨lf, w'.heap.size, rfl, heap_push _ _ _, e2, e3.same (SameT.below hbx), iS⟩), ⟨fun h => own_kept9 (i8.1 h) hbx, fun h => by have := (i8.2 h).1; rw [hD] at this; cases this⟩, i9, i10, (cells_of iG hbx (Array.getElem?_eq_some_iff.1 iG).1), (fun y hy => (iX y hy).same (SameT.below hbx)), (Nat.le_trans iS hbx.size), (iK.trans (Kept.of hbx))⟩⟩
            · intro D x w' hD hI hw hcl
              obtain ⟨i0, i1, i2, i3, i4, i5, i6, i7, i8, i9, i10, iG, iX, iS, iK⟩ := hI.out
              have hw1 := hw 1 rfl
              have hw_b := hw 7 rfl
              have d1 := i1 hw1
              obtain ⟨lf, g4, d7, e2, e3, e4, e5⟩ := i7 hw_b hD
              simp only [d1, d7]
              clear hw
              have hown9 := i8.1 hD
              have hnews : ∀ j u, lf.cells[j]? = some u → w'.cell? ((⟨g4, 0, none⟩ : Addr).add j) = some u := fun j u hj => by
                rw [Addr.add_mid, Nat.zero_add, cell_heap e2, ← hj, List.getElem?_toArray]
              refine wpList_append_own _ rfl (.tmp 55) (.tmp 61) 44 rfl base 94 iL (.agg #[.string ⟨#[]⟩, .string ⟨#[]⟩, .int .i64 0, .slice none 0 0]) 4 64 Tryd.underlying44 hiL hzL hsL hbL rfl (by decide) _ _ _ rfl hown9 ⟨g4, 0, none⟩ 1 1 lf.cells rfl rfl hnews (fun u hu => by simp [LeafV.cells] at hu; rcases hu with rfl | rfl | rfl | rfl <;> rfl) (by unfold maxLen; omega) (by omega) iS ?_
              intro v9 w9 hown10 hgr _
              have hs9 : SameT 25 base w' w9 := SameT.grown hown9 hgr (by decide)
              have h10 : D 10 = false := by
                cases h : D 10 with
                | false => rfl
                | true => have := i10 h; rw [hD] at this; cases this
              have hk9 : Kept g6 W6 w9 := ⟨hgr.os.trans iK.os, hgr.tape.trans iK.tape, hgr.output.trans iK.output, Nat.le_trans iK.size hgr.size, fun j hj hne => (hgr.block j (Nat.lt_of_lt_of_le hj iK.size) (fun e => by have := (hown9.lt j e.symm).1; rw [HB.out] at hj; omega)).trans (iK.block j hj hne)⟩
              have hG9 : w9.heap[g6]? = some (.cells #[.int .i64 (n : Int), sv] 46 (0, 0)) := by
                rw [h10] at iG
                exact (hgr.block g6 (by omega) (fun e => by have := (hown9.lt g6 e.symm).1; omega)).trans iG
              refine gPost_mk (v := v9) rfl rfl ?_
              exact ⟨⟨i0, i1, i2, i3, i4, i5, (fun h => by obtain ⟨lf, e1, e2, e3⟩ := i6 h; exact ⟨lf, e1, e2, e3.same (hs9)⟩), (fun _ h => by cases h), ⟨fun h => (by cases h), fun _ => ⟨hw_b, hw1, lf, hown10, e3, e4.same hs9⟩⟩, i9, (fun _ => rfl), (by show w9.heap[g6]? = some (Obj.cells #[.int .i64 (n : Int), bif D 10 then _ else sv] 46 (0, 0)); rw [h10]; exact hG9), (fun y hy => (iX y hy).same hs9), Nat.le_trans iS hgr.size, hk9⟩⟩
            · intro D x w' hD hI hw hcl
              obtain ⟨i0, i1, i2, i3, i4, i5, i6, i7, i8, i9, i10, iG, iX, iS, iK⟩ := hI.out
              clear hw
              go_wp2_with fail
              refine gPost_mk (v := .pointer (some ⟨g6, 1, none⟩)) rfl (by first | rfl | (show Value.pointer _ = Value.pointer _; simp) | (show Value.int .i64 _ = Value.int .i64 _; rw [hsub])) ?_
              exact ⟨⟨i0, i1, i2, i3, i4, i5, i6, i7, i8, (fun _ => rfl), i10, iG, iX, iS, iK⟩⟩
            · intro D x w' hD hI hw hcl
              obtain ⟨i0, i1, i2, i3, i4, i5, i6, i7, i8, i9, i10, iG, iX, iS, iK⟩ := hI.out
              have hA9 := hw 8 rfl
              have d9 := i9 (hw 9 rfl)
              obtain ⟨qb, q1, lf, e1, e2, e3⟩ := i8.2 hA9
              obtain ⟨a9, c9, d8, _⟩ := own_sliceH e1
              rw [hD] at iG
              have iG : w'.heap[g6]? = some (.cells #[.int .i64 (n : Int), sv] 46 (0, 0)) := iG
              have qk := cell_heap iG 1
              have fk := frozen_heap iG 1
              clear hw
              simp only [d8, d9]
              go_wp2_with fail
              refine gPost_no rfl ?_
              exact ⟨⟨i0, i1, i2, i3, i4, i5, (fun h => by obtain ⟨lf, e1, e2, e3⟩ := i6 h; exact ⟨lf, e1, e2, e3.same (SameT.put hg6b)⟩), (fun _ h2 => by have h9 : D 8 = false := h2; rw [hA9] at h9; cases h9), ⟨fun h2 => (by have h9 : D 8 = false := h2; rw [hA9] at h9; cases h9), fun _ => ⟨qb, q1, lf, own_far e1 (fun j j1 j2 => row_oth' w' g6 1 j _ (by omega)), e2, e3.same (SameT.put hg6b)⟩⟩, i9, (fun _ => hA9), (by show _ = some (Obj.cells #[.int .i64 (n : Int), x 8] 46 (0, 0)); rw [d8]; exact row_put5 iG), (fun y hy => (iX y hy).same (SameT.put hg6b)), (by rw [World.size_setCell]; exact iS), iK.trans ⟨rfl, rfl, rfl, by rw [World.size_setCell]; exact Nat.le_refl _, fun j hj hne => row_oth' w' g6 1 j _ hne⟩⟩⟩
          intro w9 x hI
          obtain ⟨_, _, _, _, _, _, _, _, iA, _, _, iG, iX, iS, iK⟩ := hI
          obtain ⟨_, _, lf, hownE, hld, hheldE⟩ := iA.2 rfl
          have iG : w9.heap[g6]? = some (.cells #[.int .i64 (n : Int), x 8] 46 (0, 0)) := iG
          have hownE : w9.ownsRow base 94 4 (x 8) (m + 1) (xs.flatMap LeafV.cells ++ lf.cells) := hownE
          clear iA
          have HXE : Hid ((xs ++ [lf]).map LeafV.d = [] ++ [mkD l k9]) := Lib.hid (by rw [List.map_append, HX.out, ← hld]; rfl)
          have hownE2 : w9.ownsRow base 94 4 (x 8) (m + 1) ((xs ++ [lf]).flatMap LeafV.cells) := by
            rw [List.flatMap_append, List.flatMap_cons, List.flatMap_nil, List.append_nil]
            exact hownE
          have hxs9 : ∀ y ∈ xs ++ [lf], y.held w9 base := fun y hy => by
            rcases List.mem_append.1 hy with h9 | h9
            · exact iX y h9
            · rw [List.mem_singleton.1 h9]; exact hheldE
          have HXL9 : Hid ((xs ++ [lf]).length = m + 1) := Lib.hid (by rw [List.length_append, HXL.out]; rfl)
          clear hown y6 hxs hKp hownE iX hheldE hld hbw HX HXL
          obtain ⟨sv, hsv⟩ : ∃ v, v = x 8 := ⟨_, rfl⟩
          rw [← hsv] at iG hownE2
          obtain ⟨m2, hm⟩ : ∃ q, q = m + 1 := ⟨_, rfl⟩
          have HXL : Hid ((xs ++ [lf]).length = m2) := Lib.hid (by rw [hm]; exact HXL9.out)
          have hm30 : m2 ≤ 4 := by omega
          rw [← hm] at hownE2
          obtain ⟨zs, hzs⟩ : ∃ q, q = xs ++ [lf] := ⟨_, rfl⟩
          rw [← hzs] at HXE hownE2 hxs9 HXL
          clear hm hzs HXL9
          have y6 := iG
          have hown := hownE2
          have hxs := hxs9
          have HX := HXE
          have hbw := iS
          have hKp := iK
          simp only [← hsv]
          clear iG hownE2 hxs9 HXE iS iK hsv
          go_upto_region 13 with fail
          refine wp_region_stateG (fun D x W => (D 0 = true → x 0 = .pointer (some ⟨g6, 1, none⟩)) ∧ (D 1 = true → x 1 = sv) ∧ (D 2 = true → x 2 = .slice (some ⟨b1, o1, none⟩) n cap) ∧ (D 3 = true → x 3 = .slice ah n ch) ∧ (D 4 = true → x 4 = .int .i64 (k : Int)) ∧ (D 5 = true → ∃ lf : LeafV, x 5 = .agg lf.cells.toArray ∧ lf.d = (mkD l k) ∧ lf.held W base) ∧ (D 6 = true → D 7 = false → ∃ (lf : LeafV) (g4 : Nat), x 6 = .slice (some ⟨g4, 0, none⟩) 1 1 ∧ W.heap[g4]? = some (.cells lf.cells.toArray 94 (0, 0)) ∧ lf.d = (mkD l k) ∧ lf.held W base ∧ base ≤ g4) ∧ ((D 7 = false → W.ownsRow base 94 4 sv m2 (zs.flatMap LeafV.cells)) ∧ (D 7 = true → D 6 = true ∧ D 1 = true ∧ ∃ lf : LeafV, W.ownsRow base 94 4 (x 7) (m2 + 1) (zs.flatMap LeafV.cells ++ lf.cells) ∧ lf.d = (mkD l k) ∧ lf.held W base)) ∧ (D 8 = true → x 8 = .pointer (some ⟨g6, 1, none⟩)) ∧ (D 9 = true → D 7 = true) ∧ W.heap[g6]? = some (.cells #[.int .i64 (n : Int), bif D 9 then x 7 else sv] 46 (0, 0)) ∧ (∀ x ∈ zs, x.held W base) ∧ base ≤ W.heap.size ∧ Kept g6 W6 W) (by kernel_rfl) (by kernel_rfl) (by kernel_rfl) (by kernel_rfl) (fun x => by simp only [fillFrom, Act.put, List.setIfInBounds_toArray, List.set_cons_succ, List.set_cons_zero, Nat.zero_add, Nat.reduceAdd]; rfl) ?_ ?_ ?_
          case refine_1 => exact fun x => ⟨(fun h => by cases h), (fun h => by cases h), (fun h => by cases h), (fun h => by cases h), (fun h => by cases h), (fun h => by cases h), (fun h => by cases h), ⟨fun _ => hown, fun h => by cases h⟩, (fun h => by cases h), (fun h => by cases h), y6, (fun y hy => (hxs y hy).same (SameT.below (Below.refl _ _).drew)), hbw, hKp.drew⟩
          case refine_2 =>
            refine ⟨?_, ?_, ?_, ?_, ?_, ?_, ?_, ?_, ?_, ?_, trivial⟩
            · intro D x w' hD hI hw hcl
              obtain ⟨i0, i1, i2, i3, i4, i5, i6, i7, i8, i9, iG, iX, iS, iK⟩ := hI.out
              clear hw
              go_wp2_with fail
              refine gPost_mk (v := .pointer (some ⟨g6, 1, none⟩)) rfl (by first | rfl | (show Value.pointer _ = Value.pointer _; simp) | (show Value.int .i64 _ = Value.int .i64 _; rw [hsub])) ?_
              exact ⟨⟨(fun _ => rfl), i1, i2, i3, i4, i5, i6, i7, i8, i9, iG, iX, iS, iK⟩⟩
            · intro D x w' hD hI hw hcl
              obtain ⟨i0, i1, i2, i3, i4, i5, i6, i7, i8, i9, iG, iX, iS, iK⟩ := hI.out
              have d0 := i0 (hw 0 rfl)
              have h9 : D 9 = false := by
                cases h : D 9 with
                | false => rfl
                | true => have h9 := (i7.2 (i9 h)).2.1; rw [hD] at h9; cases h9
              rw [h9] at iG
              have iG9 : w'.heap[g6]? = some (.cells #[.int .i64 (n : Int), sv] 46 (0, 0)) := iG
              have q1 := cell_heap iG9 1
              clear hw
              go_wp2_with fail
              refine gPost_mk (v := sv) rfl (by first | rfl | (show Value.pointer _ = Value.pointer _; simp) | (show Value.int .i64 _ = Value.int .i64 _; rw [hsub])) ?_
              exact ⟨⟨i0, (fun _ => rfl), i2, i3, i4, i5, i6, ⟨i7.1, fun h => by obtain ⟨q1, _, q3⟩ := i7.2 h; exact ⟨q1, rfl, q3⟩⟩, i8, i9, (by show _ = some (Obj.cells #[.int .i64 (n : Int), bif D 9 then _ else sv] 46 (0, 0)); rw [h9]; exact iG9), iX, iS, iK⟩⟩
            · intro D x w' hD hI hw hcl
              obtain ⟨i0, i1, i2, i3, i4, i5, i6, i7, i8, i9, iG, iX, iS, iK⟩ := hI.out
              clear hw
              go_wp2_with fail
              refine gPost_mk (v := .slice (some ⟨b1, o1, none⟩) n cap) rfl (by first | rfl | (show Value.pointer _ = Value.pointer _; simp) | (show Value.int .i64 _ = Value.int .i64 _; rw [hsub])) ?_
              exact ⟨⟨i0, i1, (fun _ => rfl), i3, i4, i5, i6, i7, i8, i9, iG, iX, iS, iK⟩⟩
            · intro D x w' hD hI hw hcl
              obtain ⟨i0, i1, i2, i3, i4, i5, i6, i7, i8, i9, iG, iX, iS, iK⟩ := hI.out
              clear hw
              go_wp2_with fail
              refine gPost_mk (v := .slice ah n ch) rfl (by first | rfl | (show Value.pointer _ = Value.pointer _; simp) | (show Value.int .i64 _ = Value.int .i64 _; rw [hsub])) ?_
              exact ⟨⟨i0, i1, i2, (fun _ => rfl), i4, i5, i6, i7, i8, i9, iG, iX, iS, iK⟩⟩
            · intro D x w' hD hI hw hcl
              obtain ⟨i0, i1, i2, i3, i4, i5, i6, i7, i8, i9, iG, iX, iS, iK⟩ := hI.out
              clear hw
              go_wp2_with fail
              refine gPost_mk (v := .int .i64 (k : Int)) rfl (by first | rfl | (show Value.pointer _ = Value.pointer _; simp) | (show Value.int .i64 _ = Value.int .i64 _; rw [hsub])) ?_
              exact ⟨⟨i0, i1, i2, i3, (fun _ => rfl), i5, i6, i7, i8, i9, iG, iX, iS, iK⟩⟩
            · intro D x w' hD hI hw hcl
              obtain ⟨i0, i1, i2, i3, i4, i5, i6, i7, i8, i9, iG, iX, iS, iK⟩ := hI.out
              have d2 := i2 (hw 2 rfl)
              have d3 := i3 (hw 3 rfl)
              have d4 := i4 (hw 4 rfl)
              have CC := CA k (by omega) w' iK
              clear hw
              go_wp2_with (go_at_call 79; refine CC.mono ?_; rintro e wx ⟨lf, rfl, hld, hlh, hbx⟩)
              refine gPost_mk (v := .agg lf.cells.toArray) rfl rfl ?_
              exact ⟨⟨i0, i1, i2, i3, i4, (fun _ => ⟨lf, rfl, hld, hlh.mono iS⟩), (fun h h2 => by obtain ⟨lf, g4, e1, e2, e3, e4, e5⟩ := i6 h h2; exact ⟨lf, g4, e1, cells_of e2 hbx (Array.getElem?_eq_some_iff.1 e2).1, e3, e4.same (SameT.below hbx), e5⟩), ⟨fun h => own_kept9 (i7.1 h) hbx, fun h => by obtain ⟨q1, q2, lf, e1, e2, e3⟩ := i7.2 h; exact ⟨q1, q2, lf, own_kept9 e1 hbx, e2, e3.same (SameT.below hbx)⟩⟩, i8, i9, (cells_of iG hbx (Array.getElem?_eq_some_iff.1 iG).1), (fun y hy => (iX y hy).same (SameT.below hbx)), (Nat.le_trans iS hbx.size), (iK.trans (Kept.of hbx))⟩⟩
            · intro D x w' hD hI hw hcl
              obtain ⟨i0, i1, i2, i3, i4, i5, i6, i7, i8, i9, iG, iX, iS, iK⟩ := hI.out
              obtain ⟨lf, d5, e2, e3⟩ := i5 (hw 5 rfl)
              simp only [d5]
              clear hw
              refine wpList_one rfl (.tmp 73) 44 94 rfl (by rfl) (one_leaf _ rfl _) ?_
              have hbx : Below w'.heap.size w' (w'.alloc (.cells lf.cells.toArray 94)) := Below.alloc (Below.refl _ _) (Nat.le_refl _) _
              refine gPost_mk (v := (.slice (some ⟨w'.heap.size, 0, none⟩) 1 1)) rfl rfl ?_
              exact ⟨⟨i0, i1, i2, i3, i4, (fun h => by obtain ⟨lf, e1, e2, e3⟩ := i5 h; exact ⟨lf, e1, e2, e3.same (SameT.below hbx)⟩), (fun _ _ => ⟨lf, w'.heap.size, rfl, heap_push _ _ _, e2, e3.same (SameT.below hbx), iS⟩), ⟨fun h => own_kept9 (i7.1 h) hbx, fun h => by have := (i7.2 h).1; rw [hD] at this; cases this⟩, i8, i9, (cells_of iG hbx (Array.getElem?_eq_some_iff.1 iG).1), (fun y hy => (iX y hy).same (SameT.below hbx)), (Nat.le_trans iS hbx.size), (iK.trans (Kept.of hbx))⟩⟩
            · intro D x w' hD hI hw hcl
              obtain ⟨i0, i1, i2, i3, i4, i5, i6, i7, i8, i9, iG, iX, iS, iK⟩ := hI.out
              have hw1 := hw 1 rfl
              have hw_b := hw 6 rfl
              have d1 := i1 hw1
              obtain ⟨lf, g4, d6, e2, e3, e4, e5⟩ := i6 hw_b hD
              simp only [d1, d6]
              clear hw
              have hown9 := i7.1 hD
              have hnews : ∀ j u, lf.cells[j]? = some u → w'.cell? ((⟨g4, 0, none⟩ : Addr).add j) = some u := fun j u hj => by
                rw [Addr.add_mid, Nat.zero_add, cell_heap e2, ← hj, List.getElem?_toArray]
              refine wpList_append_own _ rfl (.tmp 69) (.tmp 74) 44 rfl base 94 iL (.agg #[.string ⟨#[]⟩, .string ⟨#[]⟩, .int .i64 0, .slice none 0 0]) 4 64 Tryd.underlying44 hiL hzL hsL hbL rfl (by decide) _ _ _ rfl hown9 ⟨g4, 0, none⟩ 1 1 lf.cells rfl rfl hnews (fun u hu => by simp [LeafV.cells] at hu; rcases hu with rfl | rfl | rfl | rfl <;> rfl) (by unfold maxLen; omega) (by omega) iS ?_
              intro v9 w9 hown10 hgr _
              have hs9 : SameT 25 base w' w9 := SameT.grown hown9 hgr (by decide)
              have h9 : D 9 = false := by
                cases h : D 9 with
                | false => rfl
                | true => have := i9 h; rw [hD] at this; cases this
              have hk9 : Kept g6 W6 w9 := ⟨hgr.os.trans iK.os, hgr.tape.trans iK.tape, hgr.output.trans iK.output, Nat.le_trans iK.size hgr.size, fun j hj hne => (hgr.block j (Nat.lt_of_lt_of_le hj iK.size) (fun e => by have := (hown9.lt j e.symm).1; rw [HB.out] at hj; omega)).trans (iK.block j hj hne)⟩
              have hG9 : w9.heap[g6]? = some (.cells #[.int .i64 (n : Int), sv] 46 (0, 0)) := by
                rw [h9] at iG
                exact (hgr.block g6 (by omega) (fun e => by have := (hown9.lt g6 e.symm).1; omega)).trans iG
              refine gPost_mk (v := v9) rfl rfl ?_
              exact ⟨⟨i0, i1, i2, i3, i4, (fun h => by obtain ⟨lf, e1, e2, e3⟩ := i5 h; exact ⟨lf, e1, e2, e3.same (hs9)⟩), (fun _ h => by cases h), ⟨fun h => (by cases h), fun _ => ⟨hw_b, hw1, lf, hown10, e3, e4.same hs9⟩⟩, i8, (fun _ => rfl), (by show w9.heap[g6]? = some (Obj.cells #[.int .i64 (n : Int), bif D 9 then _ else sv] 46 (0, 0)); rw [h9]; exact hG9), (fun y hy => (iX y hy).same hs9), Nat.le_trans iS hgr.size, hk9⟩⟩
            · intro D x w' hD hI hw hcl
              obtain ⟨i0, i1, i2, i3, i4, i5, i6, i7, i8, i9, iG, iX, iS, iK⟩ := hI.out
              clear hw
              go_wp2_with fail
              refine gPost_mk (v := .pointer (some ⟨g6, 1, none⟩)) rfl (by first | rfl | (show Value.pointer _ = Value.pointer _; simp) | (show Value.int .i64 _ = Value.int .i64 _; rw [hsub])) ?_
              exact ⟨⟨i0, i1, i2, i3, i4, i5, i6, i7, (fun _ => rfl), i9, iG, iX, iS, iK⟩⟩
            · intro D x w' hD hI hw hcl
              obtain ⟨i0, i1, i2, i3, i4, i5, i6, i7, i8, i9, iG, iX, iS, iK⟩ := hI.out
              have hA9 := hw 7 rfl
              have d8 := i8 (hw 8 rfl)
              obtain ⟨qb, q1, lf, e1, e2, e3⟩ := i7.2 hA9
              obtain ⟨a9, c9, d7, _⟩ := own_sliceH e1
              rw [hD] at iG
              have iG : w'.heap[g6]? = some (.cells #[.int .i64 (n : Int), sv] 46 (0, 0)) := iG
              have qk := cell_heap iG 1
              have fk := frozen_heap iG 1
              clear hw
              simp only [d7, d8]
              go_wp2_with fail
              refine gPost_no rfl ?_
              exact ⟨⟨i0, i1, i2, i3, i4, (fun h => by obtain ⟨lf, e1, e2, e3⟩ := i5 h; exact ⟨lf, e1, e2, e3.same (SameT.put hg6b)⟩), (fun _ h2 => by have h9 : D 7 = false := h2; rw [hA9] at h9; cases h9), ⟨fun h2 => (by have h9 : D 7 = false := h2; rw [hA9] at h9; cases h9), fun _ => ⟨qb, q1, lf, own_far e1 (fun j j1 j2 => row_oth' w' g6 1 j _ (by omega)), e2, e3.same (SameT.put hg6b)⟩⟩, i8, (fun _ => hA9), (by show _ = some (Obj.cells #[.int .i64 (n : Int), x 7] 46 (0, 0)); rw [d7]; exact row_put5 iG), (fun y hy => (iX y hy).same (SameT.put hg6b)), (by rw [World.size_setCell]; exact iS), iK.trans ⟨rfl, rfl, rfl, by rw [World.size_setCell]; exact Nat.le_refl _, fun j hj hne => row_oth' w' g6 1 j _ hne⟩⟩⟩
          intro w11 x hI
          obtain ⟨_, _, _, _, _, _, _, iA, _, _, iG, iX, iS, iK⟩ := hI
          obtain ⟨_, _, lf, hownE, hld, hheldE⟩ := iA.2 rfl
          have iG : w11.heap[g6]? = some (.cells #[.int .i64 (n : Int), x 7] 46 (0, 0)) := iG
          have hownE : w11.ownsRow base 94 4 (x 7) (m2 + 1) (zs.flatMap LeafV.cells ++ lf.cells) := hownE
          clear iA
          have HXE : Hid ((zs ++ [lf]).map LeafV.d = ([] ++ [mkD l k9]) ++ [mkD l k]) := Lib.hid (by rw [List.map_append, HX.out, ← hld]; rfl)
          have hownE2 : w11.ownsRow base 94 4 (x 7) (m2 + 1) ((zs ++ [lf]).flatMap LeafV.cells) := by
            rw [List.flatMap_append, List.flatMap_cons, List.flatMap_nil, List.append_nil]
            exact hownE
          have hxs9 : ∀ y ∈ zs ++ [lf], y.held w11 base := fun y hy => by
            rcases List.mem_append.1 hy with h9 | h9
            · exact iX y h9
            · rw [List.mem_singleton.1 h9]; exact hheldE
          have HXL9 : Hid ((zs ++ [lf]).length = m2 + 1) := Lib.hid (by rw [List.length_append, HXL.out]; rfl)
          clear hown y6 hxs hKp hownE iX hheldE hld hbw HX HXL
          obtain ⟨sv, hsv⟩ : ∃ v, v = x 7 := ⟨_, rfl⟩
          rw [← hsv] at iG hownE2
          obtain ⟨m3, hm⟩ : ∃ q, q = m2 + 1 := ⟨_, rfl⟩
          have HXL : Hid ((zs ++ [lf]).length = m3) := Lib.hid (by rw [hm]; exact HXL9.out)
          have hm30 : m3 ≤ 5 := by omega
          rw [← hm] at hownE2
          obtain ⟨ys, hzs⟩ : ∃ q, q = zs ++ [lf] := ⟨_, rfl⟩
          rw [← hzs] at HXE hownE2 hxs9 HXL
          clear hm hzs HXL9
          have y6 := iG
          have hown := hownE2
          have hxs := hxs9
          have HX := HXE
          have hbw := iS
          have hKp := iK
          simp only [← hsv]
          clear iG hownE2 hxs9 HXE iS iK hsv
          obtain ⟨a9, c9, hsv9, hr9, hc1, hc2⟩ := own_sliceH hown
          subst hsv9
          have y4 : w11.heap[w.heap.size]? = some (.cells #[.int .i64 0, .slice none 0 0] 46 (0, 0)) := (hKp.block _ (Array.getElem?_eq_some_iff.1 y4).1 (by omega)).trans y4
          have hbel : Below w.heap.size w w11 := kept_belowM hbel hKp (by omega) (by rw [HB.out]; omega)
          have hheld : lvsHeld w11 base a9 ys := ⟨hr9, own_held hown, hxs⟩
          have HXD : Hid (ys.map LeafV.d = makeD l key) := Lib.hid (by rw [HX.out, HMD.out _ HWIT.out, HW0.out]; rfl)
          go_wp2_with (first | (refine wpList_load_mid rfl 46 (.tmp 6) rfl g6 0 rfl (#[.int .i64 (n : Int), .slice a9 m3 c9] : Array Value).toList _ (rangeAt_row5 y6) Tryd.underlying46 rfl (by kernel_rfl) ?_; rw [Array.toArray_toList]) | (refine wpList_storeRowTo (Z := #[.int .i64 (n : Int), .slice a9 m3 c9]) rfl (.tmp 4) (.tmp 77) 46 rfl (by kernel_rfl) rfl (by rfl) y4 rfl (pf_oneM _ _ _ _) ?_))
          have hrd := run_loadVar_mid (P := Tryd.prog) _ w.heap.size 0 46 (#[.int .i64 (n : Int), .slice a9 m3 c9] : Array Value).toList _ (rangeAt_row5 (setRow_heap _ _ _ _ _ _ y4)) Tryd.underlying46 rfl (by kernel_rfl)
          refine bodyPost_ret (v := .agg #[.int .i64 (n : Int), .slice a9 m3 c9]) ?_ rfl ?_
          · simp [results, Tryd.results42, asAddr]
            exact hrd
          first | exact ⟨a9, m3, c9, ys, by rw [HMC.out], (hheld.same (SameT.setRow (by omega)) (SameT.setRow (by omega))).at, HXL.out, hc1, hc2, HXD.out, below_setRow hbel (Nat.le_refl _) _⟩ | exact ⟨a9, m3, c9, by rw [HMC.out], ys, (hheld.same (SameT.setRow (by omega)) (SameT.setRow (by omega))).at, HXL.out, hc1, hc2, HXD.out, below_setRow hbel (Nat.le_refl _) _⟩
      · have HWIT : Hid (witL n (placeL l key) (foundL l key) = [k]) := Lib.hid (by
          unfold witL
          rw [HFD.out, HPL.out, if_pos rfl])
        have hy6l := (Array.getElem?_eq_some_iff.1 y6).1
        go_upto_region 9 with (first | (go_at_call 79; refine (CA k hlt _ (Kept.of (Below.refl _ _))).mono ?_; rintro e wx ⟨lf, rfl, hld, hlh, hbx⟩; have y6 := cells_of y6 hbx hy6l; have y6w := y6; have hy6l := Nat.lt_of_lt_of_le hy6l hbx.size) | (refine wpList_one rfl (.tmp 48) 44 94 rfl (by rfl) (one_leaf _ rfl _) ?_; have hb7 : Below wx.heap.size wx (wx.alloc (.cells lf.cells.toArray 94)) := Below.alloc (Below.refl _ _) (Nat.le_refl _) _; have hg7 := heap_push wx lf.cells.toArray 94; have y6 := cells_of y6 hb7 hy6l; have qk := cell_heap y6 1; have fk := frozen_heap y6 1))
        refine wp_nameE _ (fun W9 hX => ?_)
        have hwx : base ≤ wx.heap.size := by have := hbx.size; rw [HB.out] at this; omega
        have hss : (wx.setCell ⟨g6, 1, none⟩ (.slice (some ⟨wx.heap.size, 0, none⟩) 1 1)).heap.size = wx.heap.size := World.size_setCell ..
        have hbs : Below wx.heap.size (wx.setCell ⟨g6, 1, none⟩ (.slice (some ⟨wx.heap.size, 0, none⟩) 1 1)) W9 := by rw [hX]; exact Below.alloc (Below.refl _ _) (by rw [hss]; exact Nat.le_refl _) _
        have y6 : W9.heap[g6]? = some (.cells #[.int .i64 (n : Int), .slice (some ⟨wx.heap.size, 0, none⟩) 1 1] 46 (0, 0)) := cells_of (row_put5 y6w) hbs (by omega)
        have hgL : W9.heap[wx.heap.size]? = some (.cells lf.cells.toArray 94 (0, 0)) := by
          have h9 := heap_push (wx.setCell ⟨g6, 1, none⟩ (.slice (some ⟨wx.heap.size, 0, none⟩) 1 1)) lf.cells.toArray 94
          rw [hss] at h9
          rw [hX]; exact h9
        have y4 : W9.heap[w.heap.size]? = some (.cells #[.int .i64 0, .slice none 0 0] 46 (0, 0)) := cells_of ((row_oth' _ g6 1 _ _ (by omega)).trans (cells_of y4 hbx (by rw [HB.out]; omega))) hbs (by omega)
        have hh9 : lf.held W9 base := ((hlh.mono (by rw [HB.out]; exact Nat.le_refl _)).same (SameT.put hg6b)).same (SameT.below (by rw [hss]; exact hbs))
        have hbel : Below w.heap.size w W9 := by
          have h1 : Below w.heap.size w (wx.setCell ⟨g6, 1, none⟩ (.slice (some ⟨wx.heap.size, 0, none⟩) 1 1)) := (hbel.trans (hbx.mono (by rw [HB.out]; omega))).setCell (p := ⟨g6, 1, none⟩) (by show w.heap.size ≤ g6; omega) _
          exact h1.trans (hbs.mono (by omega))
        clear hX qk fk hg7 hb7 hbx hlh
        have hgl9 := (Array.getElem?_eq_some_iff.1 hgL).1
        have hheld : lvsHeld W9 base (some ⟨wx.heap.size, 0, none⟩) [lf] := ⟨.inr ⟨_, 0, rfl, hgl9, fun j hj => by rw [Nat.zero_add, cell_heap hgL, List.getElem?_toArray]; simp⟩, (fun b off sp e => by cases e; exact ⟨hwx, _, _, hgL⟩), fun y hy => by rw [List.mem_singleton.1 hy]; exact hh9⟩
        have HXD : Hid ([lf].map LeafV.d = makeD l key) := Lib.hid (by rw [HMD.out _ HWIT.out, List.map_cons, hld]; rfl)
        go_wp2_with (first | (refine wpList_load_mid rfl 46 (.tmp 6) rfl g6 0 rfl (#[.int .i64 (n : Int), .slice (some ⟨wx.heap.size, 0, none⟩) 1 1] : Array Value).toList _ (rangeAt_row5 y6) Tryd.underlying46 rfl (by kernel_rfl) ?_; rw [Array.toArray_toList]) | (refine wpList_storeRowTo (Z := #[.int .i64 (n : Int), .slice (some ⟨wx.heap.size, 0, none⟩) 1 1]) rfl (.tmp 4) (.tmp 51) 46 rfl (by kernel_rfl) rfl (by rfl) y4 rfl (pf_oneM _ _ _ _) ?_))
        have hrd := run_loadVar_mid (P := Tryd.prog) _ w.heap.size 0 46 (#[.int .i64 (n : Int), .slice (some ⟨wx.heap.size, 0, none⟩) 1 1] : Array Value).toList _ (rangeAt_row5 (setRow_heap _ _ _ _ _ _ y4)) Tryd.underlying46 rfl (by kernel_rfl)
        refine bodyPost_ret (v := .agg #[.int .i64 (n : Int), .slice (some ⟨wx.heap.size, 0, none⟩) 1 1]) ?_ rfl ?_
        · simp [results, Tryd.results42, asAddr]
          exact hrd
        exact ⟨some ⟨wx.heap.size, 0, none⟩, 1, 1, [lf], by rw [HMC.out], (hheld.same (SameT.setRow (by omega)) (SameT.setRow (by omega))).at, rfl, Nat.le_refl _, by unfold maxLen; omega, HXD.out, below_setRow hbel (Nat.le_refl _) _⟩
    obtain rfl : k = n := by omega
    have d9 : decide ((k : Int) < (k : Int)) = false := decide_eq_false (by omega)
    have d9n : decide (k < k) = false := decide_eq_false (by omega)
    have HPL : Hid (placeL l key = k) := Lib.hid (by rw [placeL_end (fun t q ht hq => HA.out t q (by rw [HN.out] at ht; exact ht) hq), HN.out])
    have HFD : Hid (foundL l key = false) := Lib.hid (by
      unfold foundL
      rw [HPL.out, List.getElem?_eq_none (by rw [HN.out]; exact Nat.le_refl _)])
    have HWIT : Hid (witL k (placeL l key) (foundL l key) = (if 0 < k then [k - 1] else [])) := Lib.hid (by
      unfold witL
      rw [HFD.out, HPL.out, if_neg (by decide), if_neg (by omega : ¬ k < k), List.append_nil])
    go_upto_region 7 with (first | (go_at_call 78; refine (CH _ hbel).mono ?_; rintro e w4 ⟨vh, rfl, hoh, hb⟩; have y4 := cells_of y4 hb hy4; have hbel := hbel.trans (hb.mono hbel.size); have hy4 := Nat.lt_of_lt_of_le hy4 hb.size; clear hb) | (refine wpList_storeRowTo (Z := #[.int .i64 (k : Int), .slice none 0 0]) rfl (.tmp 6) (.tmp 29) 46 rfl (by kernel_rfl) rfl (by rfl) (heap_push _ _ _) rfl (pf_oneM _ _ _ _) ?_))
    refine wp_nameE _ (fun W6 hX => ?_)
    have hb6 : Below w4.heap.size w4 W6 := by rw [hX]; exact below_setRow (Below.alloc (Below.refl _ _) (Nat.le_refl _) _) (Nat.le_refl _) _
    have y6 : W6.heap[w4.heap.size]? = some (.cells #[.int .i64 (k : Int), .slice none 0 0] 46 (0, 0)) := by rw [hX]; exact setRow_heap _ _ _ _ _ _ (heap_push _ _ _)
    clear hX
    have hah0 := fun j hj => (hoh.lt j hj).2
    obtain ⟨ah, ch, rfl, hrh, hh1, hh2⟩ := own_sliceH hoh
    obtain ⟨g6, hg6⟩ : ∃ g, w4.heap.size = g := ⟨_, rfl⟩
    have hah : ∀ b' off sp, ah = some ⟨b', off, sp⟩ → b' ≠ g6 := fun b' off sp e => by
      have := hah0 b' (by rw [e]; rfl)
      omega
    have y4 := cells_of y4 hb6 hy4
    have hbel := hbel.trans (hb6.mono hbel.size)
    have hrh := hrh.below hb6
    have hg46 : w.heap.size < g6 := by rw [← hg6]; exact hy4
    rw [hg6] at y6
    simp only [hg6]
    clear hg6 hb6 hy4 hoh hah0 CH
    have hy6 := (Array.getElem?_eq_some_iff.1 y6).1
    obtain ⟨base, hbase⟩ : ∃ b, W6.heap.size = b := ⟨_, rfl⟩
    have HB := Lib.hid hbase
    have hg6b : g6 < base := by rw [← hbase]; exact hy6
    clear hbase hy6
    have CA := fun (i : Nat) (hi : i < k) W (h1 : Kept g6 W6 W) => leafAt_any _ _ cap l ah ch i W (hr.below (kept_belowM hbel h1 (by omega) (by rw [HB.out]; omega))) HN.out hi hn6 hcap hh1 hh2 (hrh.kept5 h1 hah) HFT.out
    unfold LeafPost at CA
    clear hrh hah
    obtain ⟨iL, hiL, hzL, hsL, hbL⟩ := info_parts Tryd.infoLf
    go_upto_region 10 with fail
    by_cases hk0 : k = 0
    · have e0 : decide ((0 : Int) < (k : Int)) = false := decide_eq_false (by omega)
      have e0n : decide (0 < k) = false := decide_eq_false (by omega)
      have HW0 : Hid ((if 0 < k then [k - 1] else []) = ([] : List Nat)) := Lib.hid (by rw [if_neg (by omega)])
      clear hk0
      obtain ⟨m, xs, sv, HM1, hxl0, HX, y6, hown, hxs, hbw, hKp⟩ : ∃ (m : Nat) (xs : List LeafV) (sv : Value), Hid (m = 0) ∧ xs.length = m ∧ Hid (xs.map LeafV.d = []) ∧ W6.heap[g6]? = some (.cells #[.int .i64 (k : Int), sv] 46 (0, 0)) ∧ W6.ownsRow base 94 4 sv m (xs.flatMap LeafV.cells) ∧ (∀ x ∈ xs, x.held W6 base) ∧ base ≤ W6.heap.size ∧ Kept g6 W6 W6 := ⟨0, [], .slice none 0 0, Lib.hid rfl, rfl, Lib.hid rfl, y6, ⟨rfl, .inl ⟨rfl, rfl⟩⟩, (fun x h => by cases h), by rw [HB.out]; exact Nat.le_refl _, Kept.of (Below.refl _ _)⟩
      have HXL := Lib.hid hxl0
      have hm30 : m ≤ 3 := by rw [HM1.out]; omega
      clear hxl0
      obtain ⟨a9, c9, hsv9, hr9, hc1, hc2⟩ := own_sliceH hown
      subst hsv9
      have y4 : W6.heap[w.heap.size]? = some (.cells #[.int .i64 0, .slice none 0 0] 46 (0, 0)) := (hKp.block _ (Array.getElem?_eq_some_iff.1 y4).1 (by omega)).trans y4
      have hbel : Below w.heap.size w W6 := kept_belowM hbel hKp (by omega) (by rw [HB.out]; omega)
      have hheld : lvsHeld W6 base a9 xs := ⟨hr9, own_held hown, hxs⟩
      have HXD : Hid (xs.map LeafV.d = makeD l key) := Lib.hid (by rw [HX.out, HMD.out _ HWIT.out, HW0.out]; rfl)
      go_wp2_with (first | (refine wpList_load_mid rfl 46 (.tmp 6) rfl g6 0 rfl (#[.int .i64 (k : Int), .slice a9 m c9] : Array Value).toList _ (rangeAt_row5 y6) Tryd.underlying46 rfl (by kernel_rfl) ?_; rw [Array.toArray_toList]) | (refine wpList_storeRowTo (Z := #[.int .i64 (k : Int), .slice a9 m c9]) rfl (.tmp 4) (.tmp 77) 46 rfl (by kernel_rfl) rfl (by rfl) y4 rfl (pf_oneM _ _ _ _) ?_))
      have hrd := run_loadVar_mid (P := Tryd.prog) _ w.heap.size 0 46 (#[.int .i64 (k : Int), .slice a9 m c9] : Array Value).toList _ (rangeAt_row5 (setRow_heap _ _ _ _ _ _ y4)) Tryd.underlying46 rfl (by kernel_rfl)
      refine bodyPost_ret (v := .agg #[.int .i64 (k : Int), .slice a9 m c9]) ?_ rfl ?_
      · simp [results, Tryd.results42, asAddr]
        exact hrd
      first | exact ⟨a9, m, c9, xs, by rw [HMC.out], (hheld.same (SameT.setRow (by omega)) (SameT.setRow (by omega))).at, HXL.out, hc1, hc2, HXD.out, below_setRow hbel (Nat.le_refl _) _⟩ | exact ⟨a9, m, c9, by rw [HMC.out], xs, (hheld.same (SameT.setRow (by omega)) (SameT.setRow (by omega))).at, HXL.out, hc1, hc2, HXD.out, below_setRow hbel (Nat.le_refl _) _⟩
    · have e0 : decide ((0 : Int) < (k : Int)) = true := decide_eq_true (by omega)
      have e0n : decide (0 < k) = true := decide_eq_true (by omega)
      obtain ⟨k9, hk9⟩ : ∃ q, k = q + 1 := ⟨k - 1, by omega⟩
      have HK9 := Lib.hid hk9
      have hk9n : k9 < k := by omega
      have HW0 : Hid ((if 0 < k then [k - 1] else []) = [k9]) := Lib.hid (by rw [if_pos (by omega), hk9]; rfl)
      clear hk9 hk0
      obtain ⟨m, xs, sv, HM1, hxl0, HX, y6, hown, hxs, hbw, hKp⟩ : ∃ (m : Nat) (xs : List LeafV) (sv : Value), Hid (m = 0) ∧ xs.length = m ∧ Hid (xs.map LeafV.d = []) ∧ W6.heap[g6]? = some (.cells #[.int .i64 (k : Int), sv] 46 (0, 0)) ∧ W6.ownsRow base 94 4 sv m (xs.flatMap LeafV.cells) ∧ (∀ x ∈ xs, x.held W6 base) ∧ base ≤ W6.heap.size ∧ Kept g6 W6 W6 := ⟨0, [], .slice none 0 0, Lib.hid rfl, rfl, Lib.hid rfl, y6, ⟨rfl, .inl ⟨rfl, rfl⟩⟩, (fun x h => by cases h), by rw [HB.out]; exact Nat.le_refl _, Kept.of (Below.refl _ _)⟩
      have HXL := Lib.hid hxl0
      have hm30 : m ≤ 3 := by rw [HM1.out]; omega
      clear hxl0
      go_upto_region 11 with fail
      refine wp_region_stateG (fun D x W => (D 0 = true → x 0 = .pointer (some ⟨g6, 1, none⟩)) ∧ (D 1 = true → x 1 = sv) ∧ (D 2 = true → x 2 = .slice a k cap) ∧ (D 3 = true → x 3 = .slice ah k ch) ∧ (D 4 = true → x 4 = .int .i64 (k : Int)) ∧ (D 5 = true → x 5 = .int .i64 (k9 : Int)) ∧ (D 6 = true → ∃ lf : LeafV, x 6 = .agg lf.cells.toArray ∧ lf.d = (mkD l k9) ∧ lf.held W base) ∧ (D 7 = true → D 8 = false → ∃ (lf : LeafV) (g4 : Nat), x 7 = .slice (some ⟨g4, 0, none⟩) 1 1 ∧ W.heap[g4]? = some (.cells lf.cells.toArray 94 (0, 0)) ∧ lf.d = (mkD l k9) ∧ lf.held W base ∧ base ≤ g4) ∧ ((D 8 = false → W.ownsRow base 94 4 sv m (xs.flatMap LeafV.cells)) ∧ (D 8 = true → D 7 = true ∧ D 1 = true ∧ ∃ lf : LeafV, W.ownsRow base 94 4 (x 8) (m + 1) (xs.flatMap LeafV.cells ++ lf.cells) ∧ lf.d = (mkD l k9) ∧ lf.held W base)) ∧ (D 9 = true → x 9 = .pointer (some ⟨g6, 1, none⟩)) ∧ (D 10 = true → D 8 = true) ∧ W.heap[g6]? = some (.cells #[.int .i64 (k : Int), bif D 10 then x 8 else sv] 46 (0, 0)) ∧ (∀ x ∈ xs, x.held W base) ∧ base ≤ W.heap.size ∧ Kept g6 W6 W) (by kernel_rfl) (by kernel_rfl) (by kernel_rfl) (by kernel_rfl) (fun x => by simp only [fillFrom, Act.put, List.setIfInBounds_toArray, List.set_cons_succ, List.set_cons_zero, Nat.zero_add, Nat.reduceAdd]; rfl) ?_ ?_ ?_
      case refine_1 => exact fun x => ⟨(fun h => by cases h), (fun h => by cases h), (fun h => by cases h), (fun h => by cases h), (fun h => by cases h), (fun h => by cases h), (fun h => by cases h), (fun h => by cases h), ⟨fun _ => hown, fun h => by cases h⟩, (fun h => by cases h), (fun h => by cases h), y6, (fun y hy => (hxs y hy).same (SameT.below (Below.refl _ _).drew)), hbw, hKp.drew⟩
      case refine_2 =>
        refine ⟨?_, ?_, ?_, ?_, ?_, ?_, ?_, ?_, ?_, ?_, ?_, trivial⟩
        · intro D x w' hD hI hw hcl
          obtain ⟨i0, i1, i2, i3, i4, i5, i6, i7, i8, i9, i10, iG, iX, iS, iK⟩ := hI.out
          clear hw
          go_wp2_with fail
          refine gPost_mk (v := .pointer (some ⟨g6, 1, none⟩)) rfl (by first | rfl | (show Value.pointer _ = Value.pointer _; simp) | (show Value.int .i64 _ = Value.int .i64 _; rw [hsub])) ?_
          exact ⟨⟨(fun _ => rfl), i1, i2, i3, i4, i5, i6, i7, i8, i9, i10, iG, iX, iS, iK⟩⟩
        · intro D x w' hD hI hw hcl
          obtain ⟨i0, i1, i2, i3, i4, i5, i6, i7, i8, i9, i10, iG, iX, iS, iK⟩ := hI.out
          have d0 := i0 (hw 0 rfl)
          have h10 : D 10 = false := by
            cases h : D 10 with
            | false => rfl
            | true => have h9 := (i8.2 (i10 h)).2.1; rw [hD] at h9; cases h9
          rw [h10] at iG
          have iG9 : w'.heap[g6]? = some (.cells #[.int .i64 (k : Int), sv] 46 (0, 0)) := iG
          have q1 := cell_heap iG9 1
          clear hw
          go_wp2_with fail
          refine gPost_mk (v := sv) rfl (by first | rfl | (show Value.pointer _ = Value.pointer _; simp) | (show Value.int .i64 _ = Value.int .i64 _; rw [hsub])) ?_
          exact ⟨⟨i0, (fun _ => rfl), i2, i3, i4, i5, i6, i7, ⟨i8.1, fun h => by obtain ⟨q1, _, q3⟩ := i8.2 h; exact ⟨q1, rfl, q3⟩⟩, i9, i10, (by show _ = some (Obj.cells #[.int .i64 (k : Int), bif D 10 then _ else sv] 46 (0, 0)); rw [h10]; exact iG9), iX, iS, iK⟩⟩
        · intro D x w' hD hI hw hcl
          obtain ⟨i0, i1, i2, i3, i4, i5, i6, i7, i8, i9, i10, iG, iX, iS, iK⟩ := hI.out
          clear hw
          go_wp2_with fail
          refine gPost_mk (v := .slice a k cap) rfl (by first | rfl | (show Value.pointer _ = Value.pointer _; simp) | (show Value.int .i64 _ = Value.int .i64 _; rw [hsub])) ?_
          exact ⟨⟨i0, i1, (fun _ => rfl), i3, i4, i5, i6, i7, i8, i9, i10, iG, iX, iS, iK⟩⟩
        · intro D x w' hD hI hw hcl
          obtain ⟨i0, i1, i2, i3, i4, i5, i6, i7, i8, i9, i10, iG, iX, iS, iK⟩ := hI.out
          clear hw
          go_wp2_with fail
          refine gPost_mk (v := .slice ah k ch) rfl (by first | rfl | (show Value.pointer _ = Value.pointer _; simp) | (show Value.int .i64 _ = Value.int .i64 _; rw [hsub])) ?_
          exact ⟨⟨i0, i1, i2, (fun _ => rfl), i4, i5, i6, i7, i8, i9, i10, iG, iX, iS, iK⟩⟩
        · intro D x w' hD hI hw hcl
          obtain ⟨i0, i1, i2, i3, i4, i5, i6, i7, i8, i9, i10, iG, iX, iS, iK⟩ := hI.out
          clear hw
          go_wp2_with fail
          refine gPost_mk (v := .int .i64 (k : Int)) rfl (by first | rfl | (show Value.pointer _ = Value.pointer _; simp) | (show Value.int .i64 _ = Value.int .i64 _; rw [hsub])) ?_
          exact ⟨⟨i0, i1, i2, i3, (fun _ => rfl), i5, i6, i7, i8, i9, i10, iG, iX, iS, iK⟩⟩
        · intro D x w' hD hI hw hcl
          obtain ⟨i0, i1, i2, i3, i4, i5, i6, i7, i8, i9, i10, iG, iX, iS, iK⟩ := hI.out
          have d4 := i4 (hw 4 rfl)
          have hsub : (k : Int) - 1 = ((k9 : Nat) : Int) := by have := HK9.out; omega
          have hs1 : (0 : Int) ≤ (k : Int) - 1 := by have := HK9.out; omega
          have hs2 : (k : Int) - 1 ≤ 9223372036854775807 := by omega
          clear hw
          go_wp2_with fail
          refine gPost_mk (v := .int .i64 (k9 : Int)) rfl (by first | rfl | (show Value.pointer _ = Value.pointer _; simp) | (show Value.int .i64 _ = Value.int .i64 _; rw [hsub])) ?_
          exact ⟨⟨i0, i1, i2, i3, i4, (fun _ => rfl), i6, i7, i8, i9, i10, iG, iX, iS, iK⟩⟩
        · intro D x w' hD hI hw hcl
          obtain ⟨i0, i1, i2, i3, i4, i5, i6, i7, i8, i9, i10, iG, iX, iS, iK⟩ := hI.out
          have d2 := i2 (hw 2 rfl)
          have d3 := i3 (hw 3 rfl)
          have d5 := i5 (hw 5 rfl)
          have CC := CA k9 (by omega) w' iK
          clear hw
          go_wp2_with (go_at_call 79; refine CC.mono ?_; rintro e wx ⟨lf, rfl, hld, hlh, hbx⟩)
          refine gPost_mk (v := .agg lf.cells.toArray) rfl rfl ?_
          exact ⟨⟨i0, i1, i2, i3, i4, i5, (fun _ => ⟨lf, rfl, hld, hlh.mono iS⟩), (fun h h2 => by obtain ⟨lf, g4, e1, e2, e3, e4, e5⟩ := i7 h h2; exact ⟨lf, g4, e1, cells_of e2 hbx (Array.getElem?_eq_some_iff.1 e2).1, e3, e4.same (SameT.below hbx), e5⟩), ⟨fun h => own_kept9 (i8.1 h) hbx, fun h => by obtain ⟨q1, q2, lf, e1, e2, e3⟩ := i8.2 h; exact ⟨q1, q2, lf, own_kept9 e1 hbx, e2, e3.same (SameT.below hbx)⟩⟩, i9, i10, (cells_of iG hbx (Array.getElem?_eq_some_iff.1 iG).1), (fun y hy => (iX y hy).same (SameT.below hbx)), (Nat.le_trans iS hbx.size), (iK.trans (Kept.of hbx))⟩⟩
        · intro D x w' hD hI hw hcl
          obtain ⟨i0, i1, i2, i3, i4, i5, i6, i7, i8, i9, i10, iG, iX, iS, iK⟩ := hI.out
          obtain ⟨lf, d6, e2, e3⟩ := i6 (hw 6 rfl)
          simp only [d6]
          clear hw
          refine wpList_one rfl (.tmp 60) 44 94 rfl (by rfl) (one_leaf _ rfl _) ?_
          have hbx : Below w'.heap.size w' (w'.alloc (.cells lf.cells.toArray 94)) := Below.alloc (Below.refl _ _) (Nat.le_refl _) _
          refine gPost_mk (v := (.slice (some ⟨w'.heap.size, 0, none⟩) 1 1)) rfl rfl ?_
          exact ⟨⟨i0, i1, i2, i3, i4, i5, (fun h => by obtain ⟨lf, e1, e2, e3⟩ := i6 h; exact ⟨lf, e1, e2, e3.same (SameT.below hbx)⟩), (fun _ _ => ⟨lf, w'.heap.size, rfl, heap_push _ _ _, e2, e3.same (SameT.below hbx), iS⟩), ⟨fun h => own_kept9 (i8.1 h) hbx, fun h => by have := (i8.2 h).1; rw [hD] at this; cases this⟩, i9, i10, (cells_of iG hbx (Array.getElem?_eq_some_iff.1 iG).1), (fun y hy => (iX y hy).same (SameT.below hbx)), (Nat.le_trans iS hbx.size), (iK.trans (Kept.of hbx))⟩⟩
        · intro D x w' hD hI hw hcl
          obtain ⟨i0, i1, i2, i3, i4, i5, i6, i7, i8, i9, i10, iG, iX, iS, iK⟩ := hI.out
          have hw1 := hw 1 rfl
          have hw_b := hw 7 rfl
          have d1 := i1 hw1
          obtain ⟨lf, g4, d7, e2, e3, e4, e5⟩ := i7 hw_b hD
          simp only [d1, d7]
          clear hw
          have hown9 := i8.1 hD
          have hnews : ∀ j u, lf.cells[j]? = some u → w'.cell? ((⟨g4, 0, none⟩ : Addr).add j) = some u := fun j u hj => by
            rw [Addr.add_mid, Nat.zero_add, cell_heap e2, ← hj, List.getElem?_toArray]
          refine wpList_append_own _ rfl (.tmp 55) (.tmp 61) 44 rfl base 94 iL (.agg #[.string ⟨#[]⟩, .string ⟨#[]⟩, .int .i64 0, .slice none 0 0]) 4 64 Tryd.underlying44 hiL hzL hsL hbL rfl (by decide) _ _ _ rfl hown9 ⟨g4, 0, none⟩ 1 1 lf.cells rfl rfl hnews (fun u hu => by simp [LeafV.cells] at hu; rcases hu with rfl | rfl | rfl | rfl <;> rfl) (by unfold maxLen; omega) (by omega) iS ?_
          intro v9 w9 hown10 hgr _
          have hs9 : SameT 25 base w' w9 := SameT.grown hown9 hgr (by decide)
          have h10 : D 10 = false := by
            cases h : D 10 with
            | false => rfl
            | true => have := i10 h; rw [hD] at this; cases this
          have hk9 : Kept g6 W6 w9 := ⟨hgr.os.trans iK.os, hgr.tape.trans iK.tape, hgr.output.trans iK.output, Nat.le_trans iK.size hgr.size, fun j hj hne => (hgr.block j (Nat.lt_of_lt_of_le hj iK.size) (fun e => by have := (hown9.lt j e.symm).1; rw [HB.out] at hj; omega)).trans (iK.block j hj hne)⟩
          have hG9 : w9.heap[g6]? = some (.cells #[.int .i64 (k : Int), sv] 46 (0, 0)) := by
            rw [h10] at iG
            exact (hgr.block g6 (by omega) (fun e => by have := (hown9.lt g6 e.symm).1; omega)).trans iG
          refine gPost_mk (v := v9) rfl rfl ?_
          exact ⟨⟨i0, i1, i2, i3, i4, i5, (fun h => by obtain ⟨lf, e1, e2, e3⟩ := i6 h; exact ⟨lf, e1, e2, e3.same (hs9)⟩), (fun _ h => by cases h), ⟨fun h => (by cases h), fun _ => ⟨hw_b, hw1, lf, hown10, e3, e4.same hs9⟩⟩, i9, (fun _ => rfl), (by show w9.heap[g6]? = some (Obj.cells #[.int .i64 (k : Int), bif D 10 then _ else sv] 46 (0, 0)); rw [h10]; exact hG9), (fun y hy => (iX y hy).same hs9), Nat.le_trans iS hgr.size, hk9⟩⟩
        · intro D x w' hD hI hw hcl
          obtain ⟨i0, i1, i2, i3, i4, i5, i6, i7, i8, i9, i10, iG, iX, iS, iK⟩ := hI.out
          clear hw
          go_wp2_with fail
          refine gPost_mk (v := .pointer (some ⟨g6, 1, none⟩)) rfl (by first | rfl | (show Value.pointer _ = Value.pointer _; simp) | (show Value.int .i64 _ = Value.int .i64 _; rw [hsub])) ?_
          exact ⟨⟨i0, i1, i2, i3, i4, i5, i6, i7, i8, (fun _ => rfl), i10, iG, iX, iS, iK⟩⟩
        · intro D x w' hD hI hw hcl
          obtain ⟨i0, i1, i2, i3, i4, i5, i6, i7, i8, i9, i10, iG, iX, iS, iK⟩ := hI.out
          have hA9 := hw 8 rfl
          have d9 := i9 (hw 9 rfl)
          obtain ⟨qb, q1, lf, e1, e2, e3⟩ := i8.2 hA9
          obtain ⟨a9, c9, d8, _⟩ := own_sliceH e1
          rw [hD] at iG
          have iG : w'.heap[g6]? = some (.cells #[.int .i64 (k : Int), sv] 46 (0, 0)) := iG
          have qk := cell_heap iG 1
          have fk := frozen_heap iG 1
          clear hw
          simp only [d8, d9]
          go_wp2_with fail
          refine gPost_no rfl ?_
          exact ⟨⟨i0, i1, i2, i3, i4, i5, (fun h => by obtain ⟨lf, e1, e2, e3⟩ := i6 h; exact ⟨lf, e1, e2, e3.same (SameT.put hg6b)⟩), (fun _ h2 => by have h9 : D 8 = false := h2; rw [hA9] at h9; cases h9), ⟨fun h2 => (by have h9 : D 8 = false := h2; rw [hA9] at h9; cases h9), fun _ => ⟨qb, q1, lf, own_far e1 (fun j j1 j2 => row_oth' w' g6 1 j _ (by omega)), e2, e3.same (SameT.put hg6b)⟩⟩, i9, (fun _ => hA9), (by show _ = some (Obj.cells #[.int .i64 (k : Int), x 8] 46 (0, 0)); rw [d8]; exact row_put5 iG), (fun y hy => (iX y hy).same (SameT.put hg6b)), (by rw [World.size_setCell]; exact iS), iK.trans ⟨rfl, rfl, rfl, by rw [World.size_setCell]; exact Nat.le_refl _, fun j hj hne => row_oth' w' g6 1 j _ hne⟩⟩⟩
      intro w9 x hI
      obtain ⟨_, _, _, _, _, _, _, _, iA, _, _, iG, iX, iS, iK⟩ := hI
      obtain ⟨_, _, lf, hownE, hld, hheldE⟩ := iA.2 rfl
      have iG : w9.heap[g6]? = some (.cells #[.int .i64 (k : Int), x 8] 46 (0, 0)) := iG
      have hownE : w9.ownsRow base 94 4 (x 8) (m + 1) (xs.flatMap LeafV.cells ++ lf.cells) := hownE
      clear iA
      have HXE : Hid ((xs ++ [lf]).map LeafV.d = [] ++ [mkD l k9]) := Lib.hid (by rw [List.map_append, HX.out, ← hld]; rfl)
      have hownE2 : w9.ownsRow base 94 4 (x 8) (m + 1) ((xs ++ [lf]).flatMap LeafV.cells) := by
        rw [List.flatMap_append, List.flatMap_cons, List.flatMap_nil, List.append_nil]
        exact hownE
      have hxs9 : ∀ y ∈ xs ++ [lf], y.held w9 base := fun y hy => by
        rcases List.mem_append.1 hy with h9 | h9
        · exact iX y h9
        · rw [List.mem_singleton.1 h9]; exact hheldE
      have HXL9 : Hid ((xs ++ [lf]).length = m + 1) := Lib.hid (by rw [List.length_append, HXL.out]; rfl)
      clear hown y6 hxs hKp hownE iX hheldE hld hbw HX HXL
      obtain ⟨sv, hsv⟩ : ∃ v, v = x 8 := ⟨_, rfl⟩
      rw [← hsv] at iG hownE2
      obtain ⟨m2, hm⟩ : ∃ q, q = m + 1 := ⟨_, rfl⟩
      have HXL : Hid ((xs ++ [lf]).length = m2) := Lib.hid (by rw [hm]; exact HXL9.out)
      have hm30 : m2 ≤ 4 := by omega
      rw [← hm] at hownE2
      obtain ⟨zs, hzs⟩ : ∃ q, q = xs ++ [lf] := ⟨_, rfl⟩
      rw [← hzs] at HXE hownE2 hxs9 HXL
      clear hm hzs HXL9
      have y6 := iG
      have hown := hownE2
      have hxs := hxs9
      have HX := HXE
      have hbw := iS
      have hKp := iK
      simp only [← hsv]
      clear iG hownE2 hxs9 HXE iS iK hsv
      obtain ⟨a9, c9, hsv9, hr9, hc1, hc2⟩ := own_sliceH hown
      subst hsv9
      have y4 : w9.heap[w.heap.size]? = some (.cells #[.int .i64 0, .slice none 0 0] 46 (0, 0)) := (hKp.block _ (Array.getElem?_eq_some_iff.1 y4).1 (by omega)).trans y4
      have hbel : Below w.heap.size w w9 := kept_belowM hbel hKp (by omega) (by rw [HB.out]; omega)
      have hheld : lvsHeld w9 base a9 zs := ⟨hr9, own_held hown, hxs⟩
      have HXD : Hid (zs.map LeafV.d = makeD l key) := Lib.hid (by rw [HX.out, HMD.out _ HWIT.out, HW0.out]; rfl)
      go_wp2_with (first | (refine wpList_load_mid rfl 46 (.tmp 6) rfl g6 0 rfl (#[.int .i64 (k : Int), .slice a9 m2 c9] : Array Value).toList _ (rangeAt_row5 y6) Tryd.underlying46 rfl (by kernel_rfl) ?_; rw [Array.toArray_toList]) | (refine wpList_storeRowTo (Z := #[.int .i64 (k : Int), .slice a9 m2 c9]) rfl (.tmp 4) (.tmp 77) 46 rfl (by kernel_rfl) rfl (by rfl) y4 rfl (pf_oneM _ _ _ _) ?_))
      have hrd := run_loadVar_mid (P := Tryd.prog) _ w.heap.size 0 46 (#[.int .i64 (k : Int), .slice a9 m2 c9] : Array Value).toList _ (rangeAt_row5 (setRow_heap _ _ _ _ _ _ y4)) Tryd.underlying46 rfl (by kernel_rfl)
      refine bodyPost_ret (v := .agg #[.int .i64 (k : Int), .slice a9 m2 c9]) ?_ rfl ?_
      · simp [results, Tryd.results42, asAddr]
        exact hrd
      first | exact ⟨a9, m2, c9, zs, by rw [HMC.out], (hheld.same (SameT.setRow (by omega)) (SameT.setRow (by omega))).at, HXL.out, hc1, hc2, HXD.out, below_setRow hbel (Nat.le_refl _) _⟩ | exact ⟨a9, m2, c9, by rw [HMC.out], zs, (hheld.same (SameT.setRow (by omega)) (SameT.setRow (by omega))).at, HXL.out, hc1, hc2, HXD.out, below_setRow hbel (Nat.le_refl _) _⟩
end Go.Proofs.YtfikbaoiialfeaaDoor
