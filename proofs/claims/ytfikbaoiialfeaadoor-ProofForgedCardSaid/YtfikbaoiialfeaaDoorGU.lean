/- The document's Fold and Leaf; the program's Leaf; ways of any place. Leaves, the program's and the document's; ways of any place; the document's Fold in general. -/
import Derived.Test.YtfikbaoiialfeaaDoorGT
import Derived.Test.YtfikbaoiialfeaaDoorGG
import Derived.WalkKit
import Derived.ProofKit
import Derived.Handy
import Derived.Below
import Derived.Lib.Hide
import Derived.IntWalk
import Derived.Outline
import Derived.WalkLawsBesides
import Derived.WalkSpells
namespace Go.Proofs.YtfikbaoiialfeaaDoor
open Go.RowKit
attribute [local go_sem] strV
set_option linter.unusedVariables false

set_option maxRecDepth 100000 in
set_option maxHeartbeats 4000000 in
theorem refFoldN_any : ∀ (n i : Nat) (z : H32) (wy : List H32) (a : Option Addr) (k cap : Nat) (w : World), i < n → n ≤ 1073741824 → wy.length = deepN n i → wy.length = k → k ≤ cap → cap ≤ maxLen → RowAt w a (wy.flatMap H32.cells) →
    Calls Tryd.prog 11 #[.int .i64 n, .int .i64 i, .agg (hrow z.1), .slice a k cap] w fun e w' => e = .returned (.tuple #[.agg (hrow (foldH n i z wy).1), .bool true]) ∧ Below w.heap.size w w' := by
  intro n
  induction n using Nat.strongRecOn with
  | _ n ih =>
  intro i z wy a k cap w hi hn3 hd hk hcap hcm hr
  have hq : (hrow z.1).size = 32 := by rw [hrow_size]; exact z.2
  have hqone := hrow_one z.1
  have g0 := al2_0 w (.cells (hrow z.1) 25) (.cells #[Value.int .u8 0, Value.int .u8 0, Value.int .u8 0, Value.int .u8 0, Value.int .u8 0, Value.int .u8 0, Value.int .u8 0, Value.int .u8 0, Value.int .u8 0, Value.int .u8 0, Value.int .u8 0, Value.int .u8 0, Value.int .u8 0, Value.int .u8 0, Value.int .u8 0, Value.int .u8 0, Value.int .u8 0, Value.int .u8 0, Value.int .u8 0, Value.int .u8 0, Value.int .u8 0, Value.int .u8 0, Value.int .u8 0, Value.int .u8 0, Value.int .u8 0, Value.int .u8 0, Value.int .u8 0, Value.int .u8 0, Value.int .u8 0, Value.int .u8 0, Value.int .u8 0, Value.int .u8 0] 25)
  have g9 := al2_1 w (.cells (hrow z.1) 25) (.cells #[Value.int .u8 0, Value.int .u8 0, Value.int .u8 0, Value.int .u8 0, Value.int .u8 0, Value.int .u8 0, Value.int .u8 0, Value.int .u8 0, Value.int .u8 0, Value.int .u8 0, Value.int .u8 0, Value.int .u8 0, Value.int .u8 0, Value.int .u8 0, Value.int .u8 0, Value.int .u8 0, Value.int .u8 0, Value.int .u8 0, Value.int .u8 0, Value.int .u8 0, Value.int .u8 0, Value.int .u8 0, Value.int .u8 0, Value.int .u8 0, Value.int .u8 0, Value.int .u8 0, Value.int .u8 0, Value.int .u8 0, Value.int .u8 0, Value.int .u8 0, Value.int .u8 0, Value.int .u8 0] 25)
  have hbA := al2_below w (.cells (hrow z.1) 25) (.cells #[Value.int .u8 0, Value.int .u8 0, Value.int .u8 0, Value.int .u8 0, Value.int .u8 0, Value.int .u8 0, Value.int .u8 0, Value.int .u8 0, Value.int .u8 0, Value.int .u8 0, Value.int .u8 0, Value.int .u8 0, Value.int .u8 0, Value.int .u8 0, Value.int .u8 0, Value.int .u8 0, Value.int .u8 0, Value.int .u8 0, Value.int .u8 0, Value.int .u8 0, Value.int .u8 0, Value.int .u8 0, Value.int .u8 0, Value.int .u8 0, Value.int .u8 0, Value.int .u8 0, Value.int .u8 0, Value.int .u8 0, Value.int .u8 0, Value.int .u8 0, Value.int .u8 0, Value.int .u8 0] 25)
  have CD := fun W => refDeep_any (n : Int) (i : Int) W
  have hdI : deepI (n : Int) (i : Int) = (k : Nat) := by
    unfold deepI; rw [insB_iff.2 ⟨by omega, by omega, by omega⟩]; simp [← hd, hk]
  simp only [hdI] at CD
  have e1 : decide ((n : Int) < 1) = false := decide_eq_false (by omega)
  have e2 : decide (1073741824 < (n : Int)) = false := decide_eq_false (by omega)
  have e2n : decide (1073741824 < n) = false := decide_eq_false (by omega)
  have e3 : decide ((i : Int) < 0) = false := decide_eq_false (by omega)
  have e4 : decide ((n : Int) ≤ (i : Int)) = false := decide_eq_false (by omega)
  have e4n : decide (n ≤ i) = false := decide_eq_false (by omega)
  have e5 : ((k : Int) != (k : Int)) = false := by simp
  have e5n : (k != k) = false := by simp
  clear hdI
  rcases Nat.lt_or_ge n 2 with hn2 | hn2
  · obtain rfl : n = 1 := by omega
    obtain rfl : i = 0 := by omega
    have HR : Hid ((foldH 1 0 z wy).1 = z.1) := Lib.hid (by rw [foldH_one (by omega)])
    clear ih e1 e2 e2n e3 e4 e4n
    go_enter Tryd.func11, Tryd.ntmps11
    go_upto_region 1 with fail
    refine wp_nameE _ (fun W1 hX => ?_)
    have y0 : W1.heap[w.heap.size]? = some (.cells (hrow z.1) 25 (0, 0)) := by rw [hX]; exact g0
    have y9 : W1.heap[w.heap.size + 1]? = some (.cells #[Value.int .u8 0, Value.int .u8 0, Value.int .u8 0, Value.int .u8 0, Value.int .u8 0, Value.int .u8 0, Value.int .u8 0, Value.int .u8 0, Value.int .u8 0, Value.int .u8 0, Value.int .u8 0, Value.int .u8 0, Value.int .u8 0, Value.int .u8 0, Value.int .u8 0, Value.int .u8 0, Value.int .u8 0, Value.int .u8 0, Value.int .u8 0, Value.int .u8 0, Value.int .u8 0, Value.int .u8 0, Value.int .u8 0, Value.int .u8 0, Value.int .u8 0, Value.int .u8 0, Value.int .u8 0, Value.int .u8 0, Value.int .u8 0, Value.int .u8 0, Value.int .u8 0, Value.int .u8 0] 25 (0, 0)) := by rw [hX]; exact g9
    have hbel : Below w.heap.size w W1 := by rw [hX]; exact hbA
    clear hX g0 g9 hbA
    have hy0 : w.heap.size < W1.heap.size := (Array.getElem?_eq_some_iff.1 y0).1
    have hy9 : w.heap.size + 1 < W1.heap.size := (Array.getElem?_eq_some_iff.1 y9).1
    go_upto_region 4 with (go_at_call 26; refine (CD _).mono ?_; rintro e w2 ⟨rfl, hb⟩; have y0 := cells_of y0 hb hy0; have y9 := cells_of y9 hb hy9; have hy0 := Nat.lt_of_lt_of_le hy0 hb.size; have hy9 := Nat.lt_of_lt_of_le hy9 hb.size; have hbel := hbel.trans (hb.mono hbel.size); clear hb)
    have hrg := hrow_range y0
    go_wp2_with (first | (refine wpList_load_mid rfl 25 (.tmp 6) rfl w.heap.size 0 rfl z.cells _ hrg Tryd.underlying25 rfl (hash_info z) ?_; rw [H32.row]) | (refine wpList_storeRowTo (Z := hrow z.1) rfl (.tmp 8) (.tmp 42) 25 rfl (by rw [hq]; kernel_rfl) rfl (by rfl) y9 (by rw [hq]; rfl) hqone ?_))
    have hrd := run_loadVar_row (P := Tryd.prog) _ _ 25 25 _ (0, 0) _ (setRow_heap _ _ _ _ _ _ y9) Tryd.underlying25 rfl (by rw [hq]; kernel_rfl)
    refine bodyPost_ret (v := .tuple #[.agg (hrow (z.1)), .bool true]) ?_ rfl ?_
    · simp [results, Tryd.results11, asAddr, hrd]
      try rfl
    exact ⟨by rw [HR.out], below_setRow hbel (by omega) _⟩
  have d2 : ((n : Int) == 1) = false := beq_eq_false_iff_ne.2 (by omega)
  have hk1 : 1 ≤ k := by
    rw [← hk, hd]
    by_cases hh : i < halfN n
    · rw [deepN_left hn2 hh]; omega
    · rw [deepN_right hn2 hh]; omega
  obtain ⟨wp, q, rfl⟩ : ∃ wp q, wy = wp ++ [q] := by
    rcases List.eq_nil_or_concat wy with h | ⟨l, b, h⟩
    · rw [h] at hk; simp at hk; omega
    · exact ⟨l, b, by rw [h, List.concat_eq_append]⟩
  rw [List.length_append, List.length_singleton] at hk hd
  obtain ⟨kk, hkk⟩ : ∃ kk, wp.length = kk := ⟨_, rfl⟩
  have hk30 := deepN_30 (n := n) (i := i) hn3
  have hrp : RowAt w a (wp.flatMap H32.cells) := by
    have := hs_take hr kk
    rw [List.take_append_of_le_length (by omega), List.take_of_length_le (by omega)] at this
    exact this
  obtain ⟨b, off, rfl, _, _⟩ := hs_at hr (k := 0) (by simp)
  have hr0 := hr
  have CH := fun W : World => refHalfN_any n W hn2 hn3
  have hlt := halfN_lt hn2
  have hpos := halfN_pos n
  have n0 : (0 : Int) ≤ (kk : Int) := by omega
  have n1 : (1 : Int) ≤ (k : Int) := by omega
  have n1' : (k : Int) ≤ 1000 := by omega
  have n2 : (kk : Int) ≤ (cap : Int) := by omega
  have n3 : (kk : Int) ≤ (k : Int) := by omega
  have n3' : (kk : Int) < (k : Int) := by omega
  have n4 : (k : Int) ≤ (cap : Int) := by omega
  have n5 : ((kk : Nat) : Int).toNat = kk := by omega
  have n6 : kk ≤ cap := by omega
  have n7 : kk ≤ k := by omega
  have n8 : kk < k := by omega
  by_cases hh : i < halfN n
  · have hfl := foldH_left (n := n) (i := i) hn2 hh z (wp ++ [q])
    have hdn := deepN_left hn2 hh
    rw [List.dropLast_concat, List.getLastD_concat] at hfl
    have IH := fun W => ih (halfN n) hlt i z wp (some ⟨b, off, none⟩) kk cap W hh (by omega) (by omega) hkk (by omega) hcm
    obtain ⟨h, hhh⟩ : ∃ h, halfN n = h := ⟨_, rfl⟩
    simp only [hhh] at hfl CH IH hh hlt hpos
    obtain ⟨FX, hFX⟩ : ∃ F, foldH h i z wp = F := ⟨_, rfl⟩
    simp only [hFX] at hfl IH
    have HR : Hid ((foldH n i z (wp ++ [q])).1 = nodeF FX.1 q.1) := Lib.hid (by rw [hfl]; rfl)
    have dd : decide ((i : Int) < (h : Int)) = true := decide_eq_true (by omega)
    have ddn : decide (i < h) = true := decide_eq_true hh
    clear hhh hFX hfl ih hdn
    go_enter Tryd.func11, Tryd.ntmps11
    go_upto_region 1 with fail
    refine wp_nameE _ (fun W1 hX => ?_)
    have y0 : W1.heap[w.heap.size]? = some (.cells (hrow z.1) 25 (0, 0)) := by rw [hX]; exact g0
    have y9 : W1.heap[w.heap.size + 1]? = some (.cells #[Value.int .u8 0, Value.int .u8 0, Value.int .u8 0, Value.int .u8 0, Value.int .u8 0, Value.int .u8 0, Value.int .u8 0, Value.int .u8 0, Value.int .u8 0, Value.int .u8 0, Value.int .u8 0, Value.int .u8 0, Value.int .u8 0, Value.int .u8 0, Value.int .u8 0, Value.int .u8 0, Value.int .u8 0, Value.int .u8 0, Value.int .u8 0, Value.int .u8 0, Value.int .u8 0, Value.int .u8 0, Value.int .u8 0, Value.int .u8 0, Value.int .u8 0, Value.int .u8 0, Value.int .u8 0, Value.int .u8 0, Value.int .u8 0, Value.int .u8 0, Value.int .u8 0, Value.int .u8 0] 25 (0, 0)) := by rw [hX]; exact g9
    have hbel : Below w.heap.size w W1 := by rw [hX]; exact hbA
    clear hX g0 g9 hbA
    have hy0 : w.heap.size < W1.heap.size := (Array.getElem?_eq_some_iff.1 y0).1
    have hy9 : w.heap.size + 1 < W1.heap.size := (Array.getElem?_eq_some_iff.1 y9).1
    have hsub : (k : Int) - 1 = ((kk : Nat) : Int) := by omega
    go_upto_region 7 with (first | (go_at_call 26; refine (CD _).mono ?_; rintro e w2 ⟨rfl, hb⟩; have y0 := cells_of y0 hb hy0; have y9 := cells_of y9 hb hy9; have hy0 := Nat.lt_of_lt_of_le hy0 hb.size; have hy9 := Nat.lt_of_lt_of_le hy9 hb.size; have hbel := hbel.trans (hb.mono hbel.size); clear hb) | (go_at_call 19; refine (CH _).mono ?_; rintro e w2 ⟨rfl, hb⟩; have y0 := cells_of y0 hb hy0; have y9 := cells_of y9 hb hy9; have hy0 := Nat.lt_of_lt_of_le hy0 hb.size; have hy9 := Nat.lt_of_lt_of_le hy9 hb.size; have hbel := hbel.trans (hb.mono hbel.size); clear hb))
    have hr := hr.below hbel
    clear hsub CH CD
    have hsF : (hrow FX.1).size = 32 := by rw [hrow_size]; exact FX.2
    have hoF := hrow_one FX.1
    refine wp_region_stateG (fun D x W => (D 0 = true → x 0 = .int .i64 (h : Int)) ∧ (D 1 = true → x 1 = .int .i64 (i : Int)) ∧ (D 2 = true → x 2 = .agg (hrow z.1)) ∧ (D 3 = true → x 3 = .slice (some ⟨b, off, none⟩) k cap) ∧ (D 4 = true → x 4 = .int .i64 (kk : Int)) ∧ (D 5 = true → x 5 = .slice (some ⟨b, off, none⟩) kk cap) ∧ (D 6 = true → x 6 = .tuple #[.agg (hrow FX.1), .bool true]) ∧ (D 7 = true → x 7 = .tuple #[.agg (hrow FX.1), .bool true]) ∧ (D 8 = true → x 8 = .agg (hrow FX.1)) ∧ (D 9 = true → x 9 = .bool true) ∧ (D 10 = true → ∃ g, x 10 = .pointer (some ⟨g, 0, none⟩) ∧ w2.heap.size ≤ g ∧ W.heap[g]? = some (.cells (bif D 11 then hrow FX.1 else #[Value.int .u8 0, Value.int .u8 0, Value.int .u8 0, Value.int .u8 0, Value.int .u8 0, Value.int .u8 0, Value.int .u8 0, Value.int .u8 0, Value.int .u8 0, Value.int .u8 0, Value.int .u8 0, Value.int .u8 0, Value.int .u8 0, Value.int .u8 0, Value.int .u8 0, Value.int .u8 0, Value.int .u8 0, Value.int .u8 0, Value.int .u8 0, Value.int .u8 0, Value.int .u8 0, Value.int .u8 0, Value.int .u8 0, Value.int .u8 0, Value.int .u8 0, Value.int .u8 0, Value.int .u8 0, Value.int .u8 0, Value.int .u8 0, Value.int .u8 0, Value.int .u8 0, Value.int .u8 0]) 25 (0, 0))) ∧ (D 11 = true → D 10 = true) ∧ (D 12 = true → x 12 = .bool true) ∧ Below w2.heap.size w2 W) (by kernel_rfl) (by kernel_rfl) (by kernel_rfl) (by kernel_rfl) (fun x => by simp only [fillFrom, Act.put, List.setIfInBounds_toArray, List.set_cons_succ, List.set_cons_zero, Nat.zero_add, Nat.reduceAdd]; rfl) ?_ ?_ ?_
    case refine_1 =>
      exact fun x => ⟨(fun h => by cases h), (fun h => by cases h), (fun h => by cases h), (fun h => by cases h), (fun h => by cases h), (fun h => by cases h), (fun h => by cases h), (fun h => by cases h), (fun h => by cases h), (fun h => by cases h), (fun h => by cases h), (fun h => by cases h), (fun h => by cases h), (Below.refl _ _).drew⟩
    case refine_2 =>
      refine ⟨?_, ?_, ?_, ?_, ?_, ?_, ?_, ?_, ?_, ?_, ?_, ?_, ?_, trivial⟩
      · intro D x w' hD hI hw hcl
        obtain ⟨i0, i1, i2, i3, i4, i5, i6, i7, i8, i9, i10, i11, i12, iB⟩ := hI.out
        clear hw
        go_wp2_with fail
        refine gPost_mk (v := .int .i64 (h : Int)) rfl rfl ?_
        exact ⟨⟨(fun _ => rfl), i1, i2, i3, i4, i5, i6, i7, i8, i9, i10, i11, i12, iB⟩⟩
      · intro D x w' hD hI hw hcl
        obtain ⟨i0, i1, i2, i3, i4, i5, i6, i7, i8, i9, i10, i11, i12, iB⟩ := hI.out
        clear hw
        go_wp2_with fail
        refine gPost_mk (v := .int .i64 (i : Int)) rfl rfl ?_
        exact ⟨⟨i0, (fun _ => rfl), i2, i3, i4, i5, i6, i7, i8, i9, i10, i11, i12, iB⟩⟩
      · intro D x w' hD hI hw hcl
        obtain ⟨i0, i1, i2, i3, i4, i5, i6, i7, i8, i9, i10, i11, i12, iB⟩ := hI.out
        clear hw
        have hrg := hrow_range (cells_of y0 iB hy0)
        go_wp2_with (refine wpList_load_mid rfl 25 (.tmp 6) rfl w.heap.size 0 rfl z.cells _ hrg Tryd.underlying25 rfl (hash_info z) ?_; rw [H32.row])
        refine gPost_mk (v := .agg (hrow z.1)) rfl rfl ?_
        exact ⟨⟨i0, i1, (fun _ => rfl), i3, i4, i5, i6, i7, i8, i9, i10, i11, i12, iB⟩⟩
      · intro D x w' hD hI hw hcl
        obtain ⟨i0, i1, i2, i3, i4, i5, i6, i7, i8, i9, i10, i11, i12, iB⟩ := hI.out
        clear hw
        go_wp2_with fail
        refine gPost_mk (v := .slice (some ⟨b, off, none⟩) k cap) rfl rfl ?_
        exact ⟨⟨i0, i1, i2, (fun _ => rfl), i4, i5, i6, i7, i8, i9, i10, i11, i12, iB⟩⟩
      · intro D x w' hD hI hw hcl
        obtain ⟨i0, i1, i2, i3, i4, i5, i6, i7, i8, i9, i10, i11, i12, iB⟩ := hI.out
        clear hw
        go_wp2_with fail
        refine gPost_mk (v := .int .i64 (kk : Int)) rfl rfl ?_
        exact ⟨⟨i0, i1, i2, i3, (fun _ => rfl), i5, i6, i7, i8, i9, i10, i11, i12, iB⟩⟩
      · intro D x w' hD hI hw hcl
        obtain ⟨i0, i1, i2, i3, i4, i5, i6, i7, i8, i9, i10, i11, i12, iB⟩ := hI.out
        have d3 : x 3 = .slice (some ⟨b, off, none⟩) k cap := i3 (hw 3 rfl)
        have d4 : x 4 = .int .i64 (kk : Int) := i4 (hw 4 rfl)
        clear hw
        go_wp2_with fail
        refine gPost_mk (v := .slice (some ⟨b, off, none⟩) kk cap) rfl rfl ?_
        exact ⟨⟨i0, i1, i2, i3, i4, (fun _ => rfl), i6, i7, i8, i9, i10, i11, i12, iB⟩⟩
      · intro D x w' hD hI hw hcl
        obtain ⟨i0, i1, i2, i3, i4, i5, i6, i7, i8, i9, i10, i11, i12, iB⟩ := hI.out
        have d0 : x 0 = .int .i64 (h : Int) := i0 (hw 0 rfl)
        have d1 : x 1 = .int .i64 (i : Int) := i1 (hw 1 rfl)
        have d2 : x 2 = .agg (hrow z.1) := i2 (hw 2 rfl)
        have d5 : x 5 = .slice (some ⟨b, off, none⟩) kk cap := i5 (hw 5 rfl)
        clear hw
        have CC := IH w' (hrp.below (hbel.trans (iB.mono hbel.size)))
        go_wp2_with (go_at_call 11; refine (CC).mono ?_; rintro e wx ⟨rfl, hbx⟩)
        refine gPost_mk (v := .tuple #[.agg (hrow FX.1), .bool true]) rfl rfl ?_
        exact ⟨⟨i0, i1, i2, i3, i4, i5, (fun _ => rfl), i7, i8, i9, (fun h => by obtain ⟨g, e1, e2, e3⟩ := i10 h; exact ⟨g, e1, e2, cells_of e3 hbx (Array.getElem?_eq_some_iff.1 e3).1⟩), i11, i12, iB.trans (hbx.mono iB.size)⟩⟩
      · intro D x w' hD hI hw hcl
        obtain ⟨i0, i1, i2, i3, i4, i5, i6, i7, i8, i9, i10, i11, i12, iB⟩ := hI.out
        have d6 : x 6 = .tuple #[.agg (hrow FX.1), .bool true] := i6 (hw 6 rfl)
        clear hw
        go_wp2_with fail
        refine gPost_mk (v := .tuple #[.agg (hrow FX.1), .bool true]) rfl rfl ?_
        exact ⟨⟨i0, i1, i2, i3, i4, i5, i6, (fun _ => rfl), i8, i9, i10, i11, i12, iB⟩⟩
      · intro D x w' hD hI hw hcl
        obtain ⟨i0, i1, i2, i3, i4, i5, i6, i7, i8, i9, i10, i11, i12, iB⟩ := hI.out
        have d7 : x 7 = .tuple #[.agg (hrow FX.1), .bool true] := i7 (hw 7 rfl)
        clear hw
        go_wp2_with fail
        refine gPost_mk (v := .agg (hrow FX.1)) rfl rfl ?_
        exact ⟨⟨i0, i1, i2, i3, i4, i5, i6, i7, (fun _ => rfl), i9, i10, i11, i12, iB⟩⟩
      · intro D x w' hD hI hw hcl
        obtain ⟨i0, i1, i2, i3, i4, i5, i6, i7, i8, i9, i10, i11, i12, iB⟩ := hI.out
        have d7 : x 7 = .tuple #[.agg (hrow FX.1), .bool true] := i7 (hw 7 rfl)
        clear hw
        go_wp2_with fail
        refine gPost_mk (v := .bool true) rfl rfl ?_
        exact ⟨⟨i0, i1, i2, i3, i4, i5, i6, i7, i8, (fun _ => rfl), i10, i11, i12, iB⟩⟩
      · intro D x w' hD hI hw hcl
        obtain ⟨i0, i1, i2, i3, i4, i5, i6, i7, i8, i9, i10, i11, i12, iB⟩ := hI.out
        clear hw
        have hs : D 11 = false := by
          cases h : D 11 with
          | false => rfl
          | true => rw [i11 h] at hD; cases hD
        go_wp2_with fail
        refine gPost_mk (v := .pointer (some ⟨w'.heap.size, 0, none⟩)) rfl rfl ?_
        exact ⟨⟨i0, i1, i2, i3, i4, i5, i6, i7, i8, i9, (fun _ => ⟨w'.heap.size, rfl, iB.size, by show _ = some (Obj.cells (bif D 11 then _ else _) _ (0, 0)); rw [hs]; exact heap_pushF _ _ _⟩), (fun _ => rfl), i12, Below.alloc iB iB.size _⟩⟩
      · intro D x w' hD hI hw hcl
        obtain ⟨i0, i1, i2, i3, i4, i5, i6, i7, i8, i9, i10, i11, i12, iB⟩ := hI.out
        have d8 : x 8 = .agg (hrow FX.1) := i8 (hw 8 rfl)
        have hD10 : D 10 = true := hw 10 rfl
        obtain ⟨g, d10, e2, e3⟩ := i10 hD10
        clear hw
        simp only [d8, d10]
        rw [hD] at e3
        have e3 : w'.heap[g]? = some (.cells #[Value.int .u8 0, Value.int .u8 0, Value.int .u8 0, Value.int .u8 0, Value.int .u8 0, Value.int .u8 0, Value.int .u8 0, Value.int .u8 0, Value.int .u8 0, Value.int .u8 0, Value.int .u8 0, Value.int .u8 0, Value.int .u8 0, Value.int .u8 0, Value.int .u8 0, Value.int .u8 0, Value.int .u8 0, Value.int .u8 0, Value.int .u8 0, Value.int .u8 0, Value.int .u8 0, Value.int .u8 0, Value.int .u8 0, Value.int .u8 0, Value.int .u8 0, Value.int .u8 0, Value.int .u8 0, Value.int .u8 0, Value.int .u8 0, Value.int .u8 0, Value.int .u8 0, Value.int .u8 0] 25 (0, 0)) := e3
        go_wp2_with (refine wpList_storeRowTo (Z := hrow FX.1) rfl (.tmp 12) (.tmp 59) 25 rfl (by rw [hsF]; kernel_rfl) rfl (by rfl) e3 (by rw [hsF]; rfl) hoF ?_)
        refine gPost_no rfl ?_
        exact ⟨⟨i0, i1, i2, i3, i4, i5, i6, i7, i8, i9, (fun _ => ⟨g, d10, e2, setRow_heap _ _ _ _ _ _ e3⟩), (fun _ => hD10), i12, below_setRow iB e2 _⟩⟩
      · intro D x w' hD hI hw hcl
        obtain ⟨i0, i1, i2, i3, i4, i5, i6, i7, i8, i9, i10, i11, i12, iB⟩ := hI.out
        have d9 : x 9 = .bool true := i9 (hw 9 rfl)
        clear hw
        go_wp2_with fail
        refine gPost_mk (v := .bool true) rfl rfl ?_
        exact ⟨⟨i0, i1, i2, i3, i4, i5, i6, i7, i8, i9, i10, i11, (fun _ => rfl), iB⟩⟩
    · intro w' X hI
      obtain ⟨j0, j1, j2, j3, j4, j5, j6, j7, j8, j9, j10, j11, j12, jB⟩ := hI
      have f7 : X 12 = .bool true := j12 rfl
      obtain ⟨g, hx7, hBg, hT⟩ := j10 rfl
      have hT : w'.heap[g]? = some (.cells (hrow FX.1) 25 (0, 0)) := hT
      clear j0 j1 j2 j3 j4 j5 j6 j7 j8 j9 j10 j11 j12
      simp only [f7, hx7]
      have y9 := cells_of y9 jB hy9
      have hbel := hbel.trans (jB.mono hbel.size)
      go_upto_region 8 with fail
      refine wp_nameE _ (fun W5 hX => ?_)
      rw [← hX] at hT y9 hbel
      clear hX
      have hr : RowAt W5 (some ⟨b, off, none⟩) ((wp ++ [q]).flatMap H32.cells) := hr0.below hbel
      have hTl : g < W5.heap.size := (Array.getElem?_eq_some_iff.1 hT).1
      have hy9 : w.heap.size + 1 < W5.heap.size := (Array.getElem?_eq_some_iff.1 y9).1
      obtain ⟨b2, o2, he2, hb2, hrgq⟩ := hs_at hr (k := kk) (by simp; omega)
      simp only [Option.some.injEq, Addr.mk.injEq, and_true] at he2
      obtain ⟨rfl, rfl⟩ := he2
      rw [show (wp ++ [q])[kk]'(by simp; omega) = q by simp [← hkk]] at hrgq
      refine wp_region_facts_chain 6 (by decide) [Fact.eq (.agg (hrow FX.1)), Fact.eq (.slice (some ⟨b, off, none⟩) k cap), Fact.eq (.int .i64 (kk : Int)), Fact.eq (.pointer (some ⟨b, off + kk * 32, none⟩)), Fact.eq (.agg (hrow q.1)), Fact.eq (.agg (hrow (nodeF FX.1 q.1)))] (by kernel_rfl) (by kernel_rfl) (by kernel_rfl) (by kernel_rfl) (by kernel_rfl) (by kernel_rfl) (by kernel_rfl) (fun x => by simp only [List.take_succ_cons, List.take_zero, fillFrom, Act.put, List.setIfInBounds_toArray, List.set_cons_succ, List.set_cons_zero]; rfl) ?_ ?_
      · refine ⟨?_, ?_, ?_, ?_, ?_, ?_, trivial⟩
        · intro x w' hbw hd
          clear hd
          have hrg := hrow_range (cells_of hT hbw hTl)
          go_wp2_with (first | (refine wpList_load_mid rfl 25 (.tmp 12) rfl g 0 rfl FX.cells _ hrg Tryd.underlying25 rfl (hash_info FX) ?_; rw [H32.row]))
          exact frPost_mk rfl (by repeat (first | assumption | exact Below.refl _ _ | refine bch ?_ (by assumption) | refine Below.alloc ?_ (by simp) _)) rfl
        · intro x w' hbw hd
          clear hd
          go_wp2_with fail
          exact frPost_mk rfl (by repeat (first | assumption | exact Below.refl _ _ | refine bch ?_ (by assumption) | refine Below.alloc ?_ (by simp) _)) rfl
        · intro x w' hbw hd
          clear hd
          go_wp2_with fail
          exact frPost_mk rfl (by repeat (first | assumption | exact Below.refl _ _ | refine bch ?_ (by assumption) | refine Below.alloc ?_ (by simp) _)) rfl
        · intro x w' hbw hd
          have d1 : x 1 = .slice (some ⟨b, off, none⟩) k cap := hd 1 rfl
          have d2 : x 2 = .int .i64 (kk : Int) := hd 2 rfl
          clear hd
          go_wp2_with fail
          exact frPost_mk rfl (by repeat (first | assumption | exact Below.refl _ _ | refine bch ?_ (by assumption) | refine Below.alloc ?_ (by simp) _)) rfl
        · intro x w' hbw hd
          have d3 : x 3 = .pointer (some ⟨b, off + kk * 32, none⟩) := hd 3 rfl
          clear hd
          have hrg : w'.rangeAt b (off + kk * 32) q.cells := fun j v hv => by rw [hbw.cell (p := ⟨b, off + kk * 32 + j, none⟩) hb2]; exact hrgq j v hv
          go_wp2_with (first | (refine wpList_load_mid rfl 25 (.tmp 64) rfl b (off + kk * 32) d3 q.cells _ hrg Tryd.underlying25 rfl (hash_info q) ?_; rw [H32.row]))
          exact frPost_mk rfl (by repeat (first | assumption | exact Below.refl _ _ | refine bch ?_ (by assumption) | refine Below.alloc ?_ (by simp) _)) rfl
        · intro x w' hbw hd
          have d0 : x 0 = .agg (hrow FX.1) := hd 0 rfl
          have d4 : x 4 = .agg (hrow q.1) := hd 4 rfl
          clear hd
          have CC := refNode_any FX.1 q.1 w' FX.2 q.2
          go_wp2_with (first | (go_at_call 15; refine (CC).mono ?_; rintro e wx ⟨rfl, hbx⟩))
          exact frPost_mk rfl (by repeat (first | assumption | exact Below.refl _ _ | refine bch ?_ (by assumption) | refine Below.alloc ?_ (by simp) _)) rfl
      · intro X2 w7 hbw hall
        have hf : X2 5 = .agg (hrow (nodeF FX.1 q.1)) := hall 5 (by decide)
        clear hall
        simp only [hf, List.drop_succ_cons, List.drop_zero]
        have hl := nodeF_len FX.1 q.1
        have hsz : (hrow (nodeF FX.1 q.1)).size = 32 := by rw [hrow_size]; exact hl
        have hone := hrow_one (nodeF FX.1 q.1)
        have y9 := cells_of y9 hbw hy9
        have hbel := hbel.trans (hbw.mono hbel.size)
        go_wp2_with (refine wpList_storeRowTo rfl (.tmp 8) (.tmp 66) 25 rfl (by rw [hsz]; kernel_rfl) rfl (by rfl) y9 (by rw [hsz]; rfl) hone ?_)
        have hrd := run_loadVar_row (P := Tryd.prog) _ _ 25 25 _ (0, 0) _ (setRow_heap _ _ _ _ _ _ y9) Tryd.underlying25 rfl (by rw [hsz]; kernel_rfl)
        refine bodyPost_ret (v := .tuple #[.agg (hrow (nodeF FX.1 q.1)), .bool true]) ?_ rfl ?_
        · simp [results, Tryd.results11, asAddr, hrd]
          try rfl
        exact ⟨by rw [HR.out], below_setRow hbel (by omega) _⟩
  · have hfl := foldH_right (n := n) (i := i) hn2 hh z (wp ++ [q])
    have hdn := deepN_right hn2 hh
    rw [List.dropLast_concat, List.getLastD_concat] at hfl
    have IH := fun W => ih (n - halfN n) (by omega) (i - halfN n) z wp (some ⟨b, off, none⟩) kk cap W (by omega) (by omega) (by omega) hkk (by omega) hcm
    obtain ⟨h, hhh⟩ : ∃ h, halfN n = h := ⟨_, rfl⟩
    simp only [hhh] at hfl CH IH hh hlt hpos
    obtain ⟨s, hs⟩ : ∃ s, n - h = s := ⟨_, rfl⟩
    obtain ⟨j, hj⟩ : ∃ j, i - h = j := ⟨_, rfl⟩
    simp only [hs, hj] at hfl IH
    obtain ⟨FX, hFX⟩ : ∃ F, foldH s j z wp = F := ⟨_, rfl⟩
    simp only [hFX] at hfl IH
    have HR : Hid ((foldH n i z (wp ++ [q])).1 = nodeF q.1 FX.1) := Lib.hid (by rw [hfl]; rfl)
    have dd : decide ((i : Int) < (h : Int)) = false := decide_eq_false (by omega)
    have ddn : decide (i < h) = false := decide_eq_false hh
    clear hhh hFX hfl ih hdn
    go_enter Tryd.func11, Tryd.ntmps11
    go_upto_region 1 with fail
    refine wp_nameE _ (fun W1 hX => ?_)
    have y0 : W1.heap[w.heap.size]? = some (.cells (hrow z.1) 25 (0, 0)) := by rw [hX]; exact g0
    have y9 : W1.heap[w.heap.size + 1]? = some (.cells #[Value.int .u8 0, Value.int .u8 0, Value.int .u8 0, Value.int .u8 0, Value.int .u8 0, Value.int .u8 0, Value.int .u8 0, Value.int .u8 0, Value.int .u8 0, Value.int .u8 0, Value.int .u8 0, Value.int .u8 0, Value.int .u8 0, Value.int .u8 0, Value.int .u8 0, Value.int .u8 0, Value.int .u8 0, Value.int .u8 0, Value.int .u8 0, Value.int .u8 0, Value.int .u8 0, Value.int .u8 0, Value.int .u8 0, Value.int .u8 0, Value.int .u8 0, Value.int .u8 0, Value.int .u8 0, Value.int .u8 0, Value.int .u8 0, Value.int .u8 0, Value.int .u8 0, Value.int .u8 0] 25 (0, 0)) := by rw [hX]; exact g9
    have hbel : Below w.heap.size w W1 := by rw [hX]; exact hbA
    clear hX g0 g9 hbA
    have hy0 : w.heap.size < W1.heap.size := (Array.getElem?_eq_some_iff.1 y0).1
    have hy9 : w.heap.size + 1 < W1.heap.size := (Array.getElem?_eq_some_iff.1 y9).1
    have hsub : (k : Int) - 1 = ((kk : Nat) : Int) := by omega
    go_upto_region 9 with (first | (go_at_call 26; refine (CD _).mono ?_; rintro e w2 ⟨rfl, hb⟩; have y0 := cells_of y0 hb hy0; have y9 := cells_of y9 hb hy9; have hy0 := Nat.lt_of_lt_of_le hy0 hb.size; have hy9 := Nat.lt_of_lt_of_le hy9 hb.size; have hbel := hbel.trans (hb.mono hbel.size); clear hb) | (go_at_call 19; refine (CH _).mono ?_; rintro e w2 ⟨rfl, hb⟩; have y0 := cells_of y0 hb hy0; have y9 := cells_of y9 hb hy9; have hy0 := Nat.lt_of_lt_of_le hy0 hb.size; have hy9 := Nat.lt_of_lt_of_le hy9 hb.size; have hbel := hbel.trans (hb.mono hbel.size); clear hb))
    have hr := hr.below hbel
    clear hsub CH CD
    have hsF : (hrow FX.1).size = 32 := by rw [hrow_size]; exact FX.2
    have hoF := hrow_one FX.1
    refine wp_region_stateG (fun D x W => (D 0 = true → x 0 = .int .i64 (n : Int)) ∧ (D 1 = true → x 1 = .int .i64 (h : Int)) ∧ (D 2 = true → x 2 = .int .i64 (s : Int)) ∧ (D 3 = true → x 3 = .int .i64 (i : Int)) ∧ (D 4 = true → x 4 = .int .i64 (h : Int)) ∧ (D 5 = true → x 5 = .int .i64 (j : Int)) ∧ (D 6 = true → x 6 = .agg (hrow z.1)) ∧ (D 7 = true → x 7 = .slice (some ⟨b, off, none⟩) k cap) ∧ (D 8 = true → x 8 = .int .i64 (kk : Int)) ∧ (D 9 = true → x 9 = .slice (some ⟨b, off, none⟩) kk cap) ∧ (D 10 = true → x 10 = .tuple #[.agg (hrow FX.1), .bool true]) ∧ (D 11 = true → x 11 = .tuple #[.agg (hrow FX.1), .bool true]) ∧ (D 12 = true → x 12 = .agg (hrow FX.1)) ∧ (D 13 = true → x 13 = .bool true) ∧ (D 14 = true → ∃ g, x 14 = .pointer (some ⟨g, 0, none⟩) ∧ w2.heap.size ≤ g ∧ W.heap[g]? = some (.cells (bif D 15 then hrow FX.1 else #[Value.int .u8 0, Value.int .u8 0, Value.int .u8 0, Value.int .u8 0, Value.int .u8 0, Value.int .u8 0, Value.int .u8 0, Value.int .u8 0, Value.int .u8 0, Value.int .u8 0, Value.int .u8 0, Value.int .u8 0, Value.int .u8 0, Value.int .u8 0, Value.int .u8 0, Value.int .u8 0, Value.int .u8 0, Value.int .u8 0, Value.int .u8 0, Value.int .u8 0, Value.int .u8 0, Value.int .u8 0, Value.int .u8 0, Value.int .u8 0, Value.int .u8 0, Value.int .u8 0, Value.int .u8 0, Value.int .u8 0, Value.int .u8 0, Value.int .u8 0, Value.int .u8 0, Value.int .u8 0]) 25 (0, 0))) ∧ (D 15 = true → D 14 = true) ∧ (D 16 = true → x 16 = .bool true) ∧ Below w2.heap.size w2 W) (by kernel_rfl) (by kernel_rfl) (by kernel_rfl) (by kernel_rfl) (fun x => by simp only [fillFrom, Act.put, List.setIfInBounds_toArray, List.set_cons_succ, List.set_cons_zero, Nat.zero_add, Nat.reduceAdd]; rfl) ?_ ?_ ?_
    case refine_1 =>
      exact fun x => ⟨(fun h => by cases h), (fun h => by cases h), (fun h => by cases h), (fun h => by cases h), (fun h => by cases h), (fun h => by cases h), (fun h => by cases h), (fun h => by cases h), (fun h => by cases h), (fun h => by cases h), (fun h => by cases h), (fun h => by cases h), (fun h => by cases h), (fun h => by cases h), (fun h => by cases h), (fun h => by cases h), (fun h => by cases h), (Below.refl _ _).drew⟩
    case refine_2 =>
      refine ⟨?_, ?_, ?_, ?_, ?_, ?_, ?_, ?_, ?_, ?_, ?_, ?_, ?_, ?_, ?_, ?_, ?_, trivial⟩
      · intro D x w' hD hI hw hcl
        obtain ⟨i0, i1, i2, i3, i4, i5, i6, i7, i8, i9, i10, i11, i12, i13, i14, i15, i16, iB⟩ := hI.out
        clear hw
        go_wp2_with fail
        refine gPost_mk (v := .int .i64 (n : Int)) rfl rfl ?_
        exact ⟨⟨(fun _ => rfl), i1, i2, i3, i4, i5, i6, i7, i8, i9, i10, i11, i12, i13, i14, i15, i16, iB⟩⟩
      · intro D x w' hD hI hw hcl
        obtain ⟨i0, i1, i2, i3, i4, i5, i6, i7, i8, i9, i10, i11, i12, i13, i14, i15, i16, iB⟩ := hI.out
        clear hw
        go_wp2_with fail
        refine gPost_mk (v := .int .i64 (h : Int)) rfl rfl ?_
        exact ⟨⟨i0, (fun _ => rfl), i2, i3, i4, i5, i6, i7, i8, i9, i10, i11, i12, i13, i14, i15, i16, iB⟩⟩
      · intro D x w' hD hI hw hcl
        obtain ⟨i0, i1, i2, i3, i4, i5, i6, i7, i8, i9, i10, i11, i12, i13, i14, i15, i16, iB⟩ := hI.out
        have d0 : x 0 = .int .i64 (n : Int) := i0 (hw 0 rfl)
        have d1 : x 1 = .int .i64 (h : Int) := i1 (hw 1 rfl)
        clear hw
        have hsub : (n : Int) - (h : Int) = ((s : Nat) : Int) := by omega
        have hs1 : (0 : Int) ≤ (n : Int) - (h : Int) := by omega
        have hs2 : (n : Int) - (h : Int) ≤ 1073741824 := by omega
        go_wp2_with fail
        refine gPost_mk (v := .int .i64 (s : Int)) rfl (by show Value.int .i64 _ = Value.int .i64 _; first | rfl | rw [hsub]) ?_
        exact ⟨⟨i0, i1, (fun _ => rfl), i3, i4, i5, i6, i7, i8, i9, i10, i11, i12, i13, i14, i15, i16, iB⟩⟩
      · intro D x w' hD hI hw hcl
        obtain ⟨i0, i1, i2, i3, i4, i5, i6, i7, i8, i9, i10, i11, i12, i13, i14, i15, i16, iB⟩ := hI.out
        clear hw
        go_wp2_with fail
        refine gPost_mk (v := .int .i64 (i : Int)) rfl rfl ?_
        exact ⟨⟨i0, i1, i2, (fun _ => rfl), i4, i5, i6, i7, i8, i9, i10, i11, i12, i13, i14, i15, i16, iB⟩⟩
      · intro D x w' hD hI hw hcl
        obtain ⟨i0, i1, i2, i3, i4, i5, i6, i7, i8, i9, i10, i11, i12, i13, i14, i15, i16, iB⟩ := hI.out
        clear hw
        go_wp2_with fail
        refine gPost_mk (v := .int .i64 (h : Int)) rfl rfl ?_
        exact ⟨⟨i0, i1, i2, i3, (fun _ => rfl), i5, i6, i7, i8, i9, i10, i11, i12, i13, i14, i15, i16, iB⟩⟩
      · intro D x w' hD hI hw hcl
        obtain ⟨i0, i1, i2, i3, i4, i5, i6, i7, i8, i9, i10, i11, i12, i13, i14, i15, i16, iB⟩ := hI.out
        have d3 : x 3 = .int .i64 (i : Int) := i3 (hw 3 rfl)
        have d4 : x 4 = .int .i64 (h : Int) := i4 (hw 4 rfl)
        clear hw
        have hsub : (i : Int) - (h : Int) = ((j : Nat) : Int) := by omega
        have hs1 : (0 : Int) ≤ (i : Int) - (h : Int) := by omega
        have hs2 : (i : Int) - (h : Int) ≤ 1073741824 := by omega
        go_wp2_with fail
        refine gPost_mk (v := .int .i64 (j : Int)) rfl (by show Value.int .i64 _ = Value.int .i64 _; first | rfl | rw [hsub]) ?_
        exact ⟨⟨i0, i1, i2, i3, i4, (fun _ => rfl), i6, i7, i8, i9, i10, i11, i12, i13, i14, i15, i16, iB⟩⟩
      · intro D x w' hD hI hw hcl
        obtain ⟨i0, i1, i2, i3, i4, i5, i6, i7, i8, i9, i10, i11, i12, i13, i14, i15, i16, iB⟩ := hI.out
        clear hw
        have hrg := hrow_range (cells_of y0 iB hy0)
        go_wp2_with (refine wpList_load_mid rfl 25 (.tmp 6) rfl w.heap.size 0 rfl z.cells _ hrg Tryd.underlying25 rfl (hash_info z) ?_; rw [H32.row])
        refine gPost_mk (v := .agg (hrow z.1)) rfl rfl ?_
        exact ⟨⟨i0, i1, i2, i3, i4, i5, (fun _ => rfl), i7, i8, i9, i10, i11, i12, i13, i14, i15, i16, iB⟩⟩
      · intro D x w' hD hI hw hcl
        obtain ⟨i0, i1, i2, i3, i4, i5, i6, i7, i8, i9, i10, i11, i12, i13, i14, i15, i16, iB⟩ := hI.out
        clear hw
        go_wp2_with fail
        refine gPost_mk (v := .slice (some ⟨b, off, none⟩) k cap) rfl rfl ?_
        exact ⟨⟨i0, i1, i2, i3, i4, i5, i6, (fun _ => rfl), i8, i9, i10, i11, i12, i13, i14, i15, i16, iB⟩⟩
      · intro D x w' hD hI hw hcl
        obtain ⟨i0, i1, i2, i3, i4, i5, i6, i7, i8, i9, i10, i11, i12, i13, i14, i15, i16, iB⟩ := hI.out
        clear hw
        go_wp2_with fail
        refine gPost_mk (v := .int .i64 (kk : Int)) rfl rfl ?_
        exact ⟨⟨i0, i1, i2, i3, i4, i5, i6, i7, (fun _ => rfl), i9, i10, i11, i12, i13, i14, i15, i16, iB⟩⟩
      · intro D x w' hD hI hw hcl
        obtain ⟨i0, i1, i2, i3, i4, i5, i6, i7, i8, i9, i10, i11, i12, i13, i14, i15, i16, iB⟩ := hI.out
        have d7 : x 7 = .slice (some ⟨b, off, none⟩) k cap := i7 (hw 7 rfl)
        have d8 : x 8 = .int .i64 (kk : Int) := i8 (hw 8 rfl)
        clear hw
        go_wp2_with fail
        refine gPost_mk (v := .slice (some ⟨b, off, none⟩) kk cap) rfl rfl ?_
        exact ⟨⟨i0, i1, i2, i3, i4, i5, i6, i7, i8, (fun _ => rfl), i10, i11, i12, i13, i14, i15, i16, iB⟩⟩
      · intro D x w' hD hI hw hcl
        obtain ⟨i0, i1, i2, i3, i4, i5, i6, i7, i8, i9, i10, i11, i12, i13, i14, i15, i16, iB⟩ := hI.out
        have d2 : x 2 = .int .i64 (s : Int) := i2 (hw 2 rfl)
        have d5 : x 5 = .int .i64 (j : Int) := i5 (hw 5 rfl)
        have d6 : x 6 = .agg (hrow z.1) := i6 (hw 6 rfl)
        have d9 : x 9 = .slice (some ⟨b, off, none⟩) kk cap := i9 (hw 9 rfl)
        clear hw
        have CC := IH w' (hrp.below (hbel.trans (iB.mono hbel.size)))
        go_wp2_with (go_at_call 11; refine (CC).mono ?_; rintro e wx ⟨rfl, hbx⟩)
        refine gPost_mk (v := .tuple #[.agg (hrow FX.1), .bool true]) rfl rfl ?_
        exact ⟨⟨i0, i1, i2, i3, i4, i5, i6, i7, i8, i9, (fun _ => rfl), i11, i12, i13, (fun h => by obtain ⟨g, e1, e2, e3⟩ := i14 h; exact ⟨g, e1, e2, cells_of e3 hbx (Array.getElem?_eq_some_iff.1 e3).1⟩), i15, i16, iB.trans (hbx.mono iB.size)⟩⟩
      · intro D x w' hD hI hw hcl
        obtain ⟨i0, i1, i2, i3, i4, i5, i6, i7, i8, i9, i10, i11, i12, i13, i14, i15, i16, iB⟩ := hI.out
        have d10 : x 10 = .tuple #[.agg (hrow FX.1), .bool true] := i10 (hw 10 rfl)
        clear hw
        go_wp2_with fail
        refine gPost_mk (v := .tuple #[.agg (hrow FX.1), .bool true]) rfl rfl ?_
        exact ⟨⟨i0, i1, i2, i3, i4, i5, i6, i7, i8, i9, i10, (fun _ => rfl), i12, i13, i14, i15, i16, iB⟩⟩
      · intro D x w' hD hI hw hcl
        obtain ⟨i0, i1, i2, i3, i4, i5, i6, i7, i8, i9, i10, i11, i12, i13, i14, i15, i16, iB⟩ := hI.out
        have d11 : x 11 = .tuple #[.agg (hrow FX.1), .bool true] := i11 (hw 11 rfl)
        clear hw
        go_wp2_with fail
        refine gPost_mk (v := .agg (hrow FX.1)) rfl rfl ?_
        exact ⟨⟨i0, i1, i2, i3, i4, i5, i6, i7, i8, i9, i10, i11, (fun _ => rfl), i13, i14, i15, i16, iB⟩⟩
      · intro D x w' hD hI hw hcl
        obtain ⟨i0, i1, i2, i3, i4, i5, i6, i7, i8, i9, i10, i11, i12, i13, i14, i15, i16, iB⟩ := hI.out
        have d11 : x 11 = .tuple #[.agg (hrow FX.1), .bool true] := i11 (hw 11 rfl)
        clear hw
        go_wp2_with fail
        refine gPost_mk (v := .bool true) rfl rfl ?_
        exact ⟨⟨i0, i1, i2, i3, i4, i5, i6, i7, i8, i9, i10, i11, i12, (fun _ => rfl), i14, i15, i16, iB⟩⟩
      · intro D x w' hD hI hw hcl
        obtain ⟨i0, i1, i2, i3, i4, i5, i6, i7, i8, i9, i10, i11, i12, i13, i14, i15, i16, iB⟩ := hI.out
        clear hw
        have hs : D 15 = false := by
          cases h : D 15 with
          | false => rfl
          | true => rw [i15 h] at hD; cases hD
        go_wp2_with fail
        refine gPost_mk (v := .pointer (some ⟨w'.heap.size, 0, none⟩)) rfl rfl ?_
        exact ⟨⟨i0, i1, i2, i3, i4, i5, i6, i7, i8, i9, i10, i11, i12, i13, (fun _ => ⟨w'.heap.size, rfl, iB.size, by show _ = some (Obj.cells (bif D 15 then _ else _) _ (0, 0)); rw [hs]; exact heap_pushF _ _ _⟩), (fun _ => rfl), i16, Below.alloc iB iB.size _⟩⟩
      · intro D x w' hD hI hw hcl
        obtain ⟨i0, i1, i2, i3, i4, i5, i6, i7, i8, i9, i10, i11, i12, i13, i14, i15, i16, iB⟩ := hI.out
        have d12 : x 12 = .agg (hrow FX.1) := i12 (hw 12 rfl)
        have hD14 : D 14 = true := hw 14 rfl
        obtain ⟨g, d14, e2, e3⟩ := i14 hD14
        clear hw
        simp only [d12, d14]
        rw [hD] at e3
        have e3 : w'.heap[g]? = some (.cells #[Value.int .u8 0, Value.int .u8 0, Value.int .u8 0, Value.int .u8 0, Value.int .u8 0, Value.int .u8 0, Value.int .u8 0, Value.int .u8 0, Value.int .u8 0, Value.int .u8 0, Value.int .u8 0, Value.int .u8 0, Value.int .u8 0, Value.int .u8 0, Value.int .u8 0, Value.int .u8 0, Value.int .u8 0, Value.int .u8 0, Value.int .u8 0, Value.int .u8 0, Value.int .u8 0, Value.int .u8 0, Value.int .u8 0, Value.int .u8 0, Value.int .u8 0, Value.int .u8 0, Value.int .u8 0, Value.int .u8 0, Value.int .u8 0, Value.int .u8 0, Value.int .u8 0, Value.int .u8 0] 25 (0, 0)) := e3
        go_wp2_with (refine wpList_storeRowTo (Z := hrow FX.1) rfl (.tmp 14) (.tmp 79) 25 rfl (by rw [hsF]; kernel_rfl) rfl (by rfl) e3 (by rw [hsF]; rfl) hoF ?_)
        refine gPost_no rfl ?_
        exact ⟨⟨i0, i1, i2, i3, i4, i5, i6, i7, i8, i9, i10, i11, i12, i13, (fun _ => ⟨g, d14, e2, setRow_heap _ _ _ _ _ _ e3⟩), (fun _ => hD14), i16, below_setRow iB e2 _⟩⟩
      · intro D x w' hD hI hw hcl
        obtain ⟨i0, i1, i2, i3, i4, i5, i6, i7, i8, i9, i10, i11, i12, i13, i14, i15, i16, iB⟩ := hI.out
        have d13 : x 13 = .bool true := i13 (hw 13 rfl)
        clear hw
        go_wp2_with fail
        refine gPost_mk (v := .bool true) rfl rfl ?_
        exact ⟨⟨i0, i1, i2, i3, i4, i5, i6, i7, i8, i9, i10, i11, i12, i13, i14, i15, (fun _ => rfl), iB⟩⟩
    · intro w' X hI
      obtain ⟨j0, j1, j2, j3, j4, j5, j6, j7, j8, j9, j10, j11, j12, j13, j14, j15, j16, jB⟩ := hI
      have f7 : X 16 = .bool true := j16 rfl
      obtain ⟨g, hx7, hBg, hT⟩ := j14 rfl
      have hT : w'.heap[g]? = some (.cells (hrow FX.1) 25 (0, 0)) := hT
      clear j0 j1 j2 j3 j4 j5 j6 j7 j8 j9 j10 j11 j12 j13 j14 j15 j16
      simp only [f7, hx7]
      have y9 := cells_of y9 jB hy9
      have hbel := hbel.trans (jB.mono hbel.size)
      go_upto_region 10 with fail
      refine wp_nameE _ (fun W5 hX => ?_)
      rw [← hX] at hT y9 hbel
      clear hX
      have hr : RowAt W5 (some ⟨b, off, none⟩) ((wp ++ [q]).flatMap H32.cells) := hr0.below hbel
      have hTl : g < W5.heap.size := (Array.getElem?_eq_some_iff.1 hT).1
      have hy9 : w.heap.size + 1 < W5.heap.size := (Array.getElem?_eq_some_iff.1 y9).1
      obtain ⟨b2, o2, he2, hb2, hrgq⟩ := hs_at hr (k := kk) (by simp; omega)
      simp only [Option.some.injEq, Addr.mk.injEq, and_true] at he2
      obtain ⟨rfl, rfl⟩ := he2
      rw [show (wp ++ [q])[kk]'(by simp; omega) = q by simp [← hkk]] at hrgq
      refine wp_region_facts_chain 6 (by decide) [Fact.eq (.slice (some ⟨b, off, none⟩) k cap), Fact.eq (.int .i64 (kk : Int)), Fact.eq (.pointer (some ⟨b, off + kk * 32, none⟩)), Fact.eq (.agg (hrow q.1)), Fact.eq (.agg (hrow FX.1)), Fact.eq (.agg (hrow (nodeF q.1 FX.1)))] (by kernel_rfl) (by kernel_rfl) (by kernel_rfl) (by kernel_rfl) (by kernel_rfl) (by kernel_rfl) (by kernel_rfl) (fun x => by simp only [List.take_succ_cons, List.take_zero, fillFrom, Act.put, List.setIfInBounds_toArray, List.set_cons_succ, List.set_cons_zero]; rfl) ?_ ?_
      · refine ⟨?_, ?_, ?_, ?_, ?_, ?_, trivial⟩
        · intro x w' hbw hd
          clear hd
          go_wp2_with fail
          exact frPost_mk rfl (by repeat (first | assumption | exact Below.refl _ _ | refine bch ?_ (by assumption) | refine Below.alloc ?_ (by simp) _)) rfl
        · intro x w' hbw hd
          clear hd
          go_wp2_with fail
          exact frPost_mk rfl (by repeat (first | assumption | exact Below.refl _ _ | refine bch ?_ (by assumption) | refine Below.alloc ?_ (by simp) _)) rfl
        · intro x w' hbw hd
          have d0 : x 0 = .slice (some ⟨b, off, none⟩) k cap := hd 0 rfl
          have d1 : x 1 = .int .i64 (kk : Int) := hd 1 rfl
          clear hd
          go_wp2_with fail
          exact frPost_mk rfl (by repeat (first | assumption | exact Below.refl _ _ | refine bch ?_ (by assumption) | refine Below.alloc ?_ (by simp) _)) rfl
        · intro x w' hbw hd
          have d2 : x 2 = .pointer (some ⟨b, off + kk * 32, none⟩) := hd 2 rfl
          clear hd
          have hrg : w'.rangeAt b (off + kk * 32) q.cells := fun j v hv => by rw [hbw.cell (p := ⟨b, off + kk * 32 + j, none⟩) hb2]; exact hrgq j v hv
          go_wp2_with (first | (refine wpList_load_mid rfl 25 (.tmp 83) rfl b (off + kk * 32) d2 q.cells _ hrg Tryd.underlying25 rfl (hash_info q) ?_; rw [H32.row]))
          exact frPost_mk rfl (by repeat (first | assumption | exact Below.refl _ _ | refine bch ?_ (by assumption) | refine Below.alloc ?_ (by simp) _)) rfl
        · intro x w' hbw hd
          clear hd
          have hrg := hrow_range (cells_of hT hbw hTl)
          go_wp2_with (first | (refine wpList_load_mid rfl 25 (.tmp 14) rfl g 0 rfl FX.cells _ hrg Tryd.underlying25 rfl (hash_info FX) ?_; rw [H32.row]))
          exact frPost_mk rfl (by repeat (first | assumption | exact Below.refl _ _ | refine bch ?_ (by assumption) | refine Below.alloc ?_ (by simp) _)) rfl
        · intro x w' hbw hd
          have d3 : x 3 = .agg (hrow q.1) := hd 3 rfl
          have d4 : x 4 = .agg (hrow FX.1) := hd 4 rfl
          clear hd
          have CC := refNode_any q.1 FX.1 w' q.2 FX.2
          go_wp2_with (first | (go_at_call 15; refine (CC).mono ?_; rintro e wx ⟨rfl, hbx⟩))
          exact frPost_mk rfl (by repeat (first | assumption | exact Below.refl _ _ | refine bch ?_ (by assumption) | refine Below.alloc ?_ (by simp) _)) rfl
      · intro X2 w7 hbw hall
        have hf : X2 5 = .agg (hrow (nodeF q.1 FX.1)) := hall 5 (by decide)
        clear hall
        simp only [hf, List.drop_succ_cons, List.drop_zero]
        have hl := nodeF_len q.1 FX.1
        have hsz : (hrow (nodeF q.1 FX.1)).size = 32 := by rw [hrow_size]; exact hl
        have hone := hrow_one (nodeF q.1 FX.1)
        have y9 := cells_of y9 hbw hy9
        have hbel := hbel.trans (hbw.mono hbel.size)
        go_wp2_with (refine wpList_storeRowTo rfl (.tmp 8) (.tmp 86) 25 rfl (by rw [hsz]; kernel_rfl) rfl (by rfl) y9 (by rw [hsz]; rfl) hone ?_)
        have hrd := run_loadVar_row (P := Tryd.prog) _ _ 25 25 _ (0, 0) _ (setRow_heap _ _ _ _ _ _ y9) Tryd.underlying25 rfl (by rw [hsz]; kernel_rfl)
        refine bodyPost_ret (v := .tuple #[.agg (hrow (nodeF q.1 FX.1)), .bool true]) ?_ rfl ?_
        · simp [results, Tryd.results11, asAddr, hrd]
          try rfl
        exact ⟨by rw [HR.out], below_setRow hbel (by omega) _⟩
end Go.Proofs.YtfikbaoiialfeaaDoor
namespace Go.Proofs.YtfikbaoiialfeaaDoor
open Go.RowKit
attribute [local go_sem] strV
set_option linter.unusedVariables false
theorem own_sliceH {w : World} {base : Nat} {e : TypeId} {size n : Nat} {v : Value} {xs : List Value} (h : w.ownsRow base e size v n xs) :
    ∃ a cap, v = .slice a n cap ∧ RowAt w a xs ∧ n ≤ cap ∧ cap ≤ maxLen := by
  obtain ⟨a, cap, hv, hr, _⟩ := RowAt.own h
  obtain ⟨h1, h2⟩ := h
  refine ⟨a, cap, hv, hr, ?_⟩
  rcases h2 with ⟨q1, q2⟩ | ⟨g, cap', cur, q1, q4, _, q2, q3, _⟩
  · rw [q1] at hv
    simp only [Value.slice.injEq] at hv
    obtain ⟨r0, r1, r2⟩ := hv
    exact ⟨by omega, by rw [← r2]; exact Nat.zero_le _⟩
  · rw [q1] at hv
    simp only [Value.slice.injEq] at hv
    obtain ⟨r0, _, r2⟩ := hv
    exact ⟨by omega, by omega⟩
def leafF (k v : ByteArray) : List UInt8 := shaF ([0] ++ eightL k.size ++ k.data.toList ++ v.data.toList)
theorem leafF_len (k v : ByteArray) : (leafF k v).length = 32 := shaF_len _
theorem flat4 (a b c d : ByteArray) : flat [a, b, c, d] = a.data.toList ++ b.data.toList ++ c.data.toList ++ d.data.toList := by simp [flat]
set_option maxRecDepth 100000 in
set_option maxHeartbeats 6400000 in
theorem leaf_any (key val : ByteArray) (w : World) (hW : SW w) (hk : key.size ≤ 1000000) (hv : val.size ≤ 1000000) :
    Calls Tryd.prog 12 #[.string key, .string val] w fun e w' => e = .returned (.agg (hrow (leafF key val))) ∧ Below w.heap.size w w' := by
  have CE := fun W => eight_any (key.size : Int) W
  unfold strV at CE
  have hl := leafF_len key val
  have hsz : (hrow (leafF key val)).size = 32 := by rw [hrow_size]; exact hl
  have hone := hrow_one (leafF key val)
  have hfl : flat [⟨#[0]⟩, ⟨(eightL (key.size : Int)).toArray⟩, key, val] = [0] ++ eightL (key.size : Int) ++ key.data.toList ++ val.data.toList := by rw [flat4]
  have hln : (flat [⟨#[0]⟩, ⟨(eightL (key.size : Int)).toArray⟩, key, val]).length ≤ 1000000000000 := by
    rw [hfl]
    have := eightL_le (key.size : Int)
    have e1 : key.data.toList.length = key.size := by rw [Array.length_toList]; rfl
    have e2 : val.data.toList.length = val.size := by rw [Array.length_toList]; rfl
    simp only [List.length_append, List.length_cons, List.length_nil, e1, e2]
    omega
  obtain ⟨E, hE⟩ : ∃ E : ByteArray, (⟨(eightL (key.size : Int)).toArray⟩ : ByteArray) = E := ⟨_, rfl⟩
  simp only [hE] at CE hln hfl
  have CS := fun (W : World) (hb : Below w.heap.size w W) => sum_any (some ⟨W.heap.size, 0, none⟩) 4 4 [⟨#[0]⟩, E, key, val] (W.alloc (.cells #[.string ⟨#[0]⟩, .string E, .string key, .string val] 9)) (row_newH W _ _) rfl ((hW.below hb).below (Below.alloc (Below.refl _ _) (Nat.le_refl _) _)) hln (by unfold maxLen; omega)
  rw [hfl] at CS
  have hLF : shaF ([0] ++ eightL (key.size : Int) ++ key.data.toList ++ val.data.toList) = leafF key val := rfl
  rw [hLF] at CS
  obtain ⟨L, hL⟩ : ∃ L, leafF key val = L := ⟨_, rfl⟩
  simp only [hL] at CS hl hsz hone ⊢
  have hq := heap_push w #[Value.int .u8 0, Value.int .u8 0, Value.int .u8 0, Value.int .u8 0, Value.int .u8 0, Value.int .u8 0, Value.int .u8 0, Value.int .u8 0, Value.int .u8 0, Value.int .u8 0, Value.int .u8 0, Value.int .u8 0, Value.int .u8 0, Value.int .u8 0, Value.int .u8 0, Value.int .u8 0, Value.int .u8 0, Value.int .u8 0, Value.int .u8 0, Value.int .u8 0, Value.int .u8 0, Value.int .u8 0, Value.int .u8 0, Value.int .u8 0, Value.int .u8 0, Value.int .u8 0, Value.int .u8 0, Value.int .u8 0, Value.int .u8 0, Value.int .u8 0, Value.int .u8 0, Value.int .u8 0] 25
  have hb0 : Below w.heap.size w (w.alloc (.cells #[Value.int .u8 0, Value.int .u8 0, Value.int .u8 0, Value.int .u8 0, Value.int .u8 0, Value.int .u8 0, Value.int .u8 0, Value.int .u8 0, Value.int .u8 0, Value.int .u8 0, Value.int .u8 0, Value.int .u8 0, Value.int .u8 0, Value.int .u8 0, Value.int .u8 0, Value.int .u8 0, Value.int .u8 0, Value.int .u8 0, Value.int .u8 0, Value.int .u8 0, Value.int .u8 0, Value.int .u8 0, Value.int .u8 0, Value.int .u8 0, Value.int .u8 0, Value.int .u8 0, Value.int .u8 0, Value.int .u8 0, Value.int .u8 0, Value.int .u8 0, Value.int .u8 0, Value.int .u8 0] 25)) := Below.alloc (Below.refl _ _) (Nat.le_refl _) _
  clear hE hln hfl hLF hL
  go_enter Tryd.func12, Tryd.ntmps12
  go_upto_region 1 with fail
  refine wp_nameE _ (fun W1 hX => ?_)
  have y9 : W1.heap[w.heap.size]? = some (.cells #[Value.int .u8 0, Value.int .u8 0, Value.int .u8 0, Value.int .u8 0, Value.int .u8 0, Value.int .u8 0, Value.int .u8 0, Value.int .u8 0, Value.int .u8 0, Value.int .u8 0, Value.int .u8 0, Value.int .u8 0, Value.int .u8 0, Value.int .u8 0, Value.int .u8 0, Value.int .u8 0, Value.int .u8 0, Value.int .u8 0, Value.int .u8 0, Value.int .u8 0, Value.int .u8 0, Value.int .u8 0, Value.int .u8 0, Value.int .u8 0, Value.int .u8 0, Value.int .u8 0, Value.int .u8 0, Value.int .u8 0, Value.int .u8 0, Value.int .u8 0, Value.int .u8 0, Value.int .u8 0] 25 (0, 0)) := by rw [hX]; exact hq
  have hbel : Below w.heap.size w W1 := by rw [hX]; exact hb0
  clear hX hq hb0
  have hy9 : w.heap.size < W1.heap.size := (Array.getElem?_eq_some_iff.1 y9).1
  go_wp2_with (first | (go_at_call 65; refine (CE _).mono ?_; rintro e wx ⟨rfl, hbx⟩; have y9 := cells_of y9 hbx hy9; have hy9 := Nat.lt_of_lt_of_le hy9 hbx.size; have hbel := hbel.trans (hbx.mono hbel.size); clear hbx) | (go_at_call 64; refine (CS _ hbel).mono ?_; rintro e wy ⟨rfl, hby⟩; have hby := (Below.alloc (Below.refl wx.heap.size wx) (Nat.le_refl _) (.cells #[.string ⟨#[0]⟩, .string E, .string key, .string val] 9)).trans (hby.mono (by simp)); have y9 := cells_of y9 hby hy9; have hbel := hbel.trans (hby.mono hbel.size)) | (refine wpList_storeRowTo (Z := hrow L) rfl (.tmp 4) (.tmp 11) 25 rfl (by rw [hsz]; kernel_rfl) rfl (by rfl) y9 (by rw [hsz]; rfl) hone ?_))
  refine bodyPost_ret (v := .agg (hrow (L))) ?_ rfl ?_
  · simp [results, Tryd.results12, asAddr]
    exact run_loadVar_row _ _ 25 25 _ (0, 0) _ (setRow_heap _ _ _ _ _ _ y9) Tryd.underlying25 rfl (by rw [hsz]; kernel_rfl)
  exact ⟨rfl, below_setRow hbel (Nat.le_refl _) _⟩
set_option maxRecDepth 100000 in
set_option maxHeartbeats 6400000 in
theorem refLeaf_any (key val : ByteArray) (w : World) (hk : key.size ≤ 300000) (hv : val.size ≤ 300000) :
    Calls Tryd.prog 13 #[.string key, .string val] w fun e w' => e = .returned (.agg (hrow (leafF key val))) ∧ Below w.heap.size w w' := by
  have CE := fun W => refEight_any (key.size : Int) W
  unfold strV at CE
  have hl := leafF_len key val
  have hsz : (hrow (leafF key val)).size = 32 := by rw [hrow_size]; exact hl
  have hone := hrow_one (leafF key val)
  obtain ⟨E, hE⟩ : ∃ E : ByteArray, (⟨(eightL (key.size : Int)).toArray⟩ : ByteArray) = E := ⟨_, rfl⟩
  have hEs : E.size ≤ 8 := by rw [← hE]; exact eightL_le _
  simp only [hE] at CE
  have h1s : (⟨#[0]⟩ : ByteArray).size = 1 := rfl
  have hcat1 : ¬ 9223372036854775807 < (⟨#[0]⟩ : ByteArray).size + E.size := by omega
  have hcat2 : ¬ 9223372036854775807 < ((⟨#[0]⟩ : ByteArray) ++ E).size + key.size := by rw [ByteArray.size_append]; omega
  have hcat3 : ¬ 9223372036854775807 < (((⟨#[0]⟩ : ByteArray) ++ E) ++ key).size + val.size := by rw [ByteArray.size_append, ByteArray.size_append]; omega
  have hcat4 : ¬ 9223372036854775807 < (⟨#[0]⟩ : ByteArray).size + E.size + key.size := by omega
  have hcat5 : ¬ 9223372036854775807 < (⟨#[0]⟩ : ByteArray).size + E.size + key.size + val.size := by omega
  have hcat6 : ¬ 9223372036854775807 < 1 + E.size + key.size := by omega
  have hcat7 : ¬ 9223372036854775807 < 1 + E.size + key.size + val.size := by omega
  have CS := fun W => refSum_any ((((⟨#[0]⟩ : ByteArray) ++ E) ++ key) ++ val) W (by rw [ByteArray.size_append, ByteArray.size_append, ByteArray.size_append, h1s]; omega)
  rw [show ((((⟨#[0]⟩ : ByteArray) ++ E) ++ key) ++ val : ByteArray).data.toList = [0] ++ eightL (key.size : Int) ++ key.data.toList ++ val.data.toList by rw [← hE]; simp, show shaF ([0] ++ eightL (key.size : Int) ++ key.data.toList ++ val.data.toList) = leafF key val from rfl] at CS
  obtain ⟨L, hL⟩ : ∃ L, leafF key val = L := ⟨_, rfl⟩
  simp only [hL] at CS hl hsz hone ⊢
  have hq := heap_push w #[Value.int .u8 0, Value.int .u8 0, Value.int .u8 0, Value.int .u8 0, Value.int .u8 0, Value.int .u8 0, Value.int .u8 0, Value.int .u8 0, Value.int .u8 0, Value.int .u8 0, Value.int .u8 0, Value.int .u8 0, Value.int .u8 0, Value.int .u8 0, Value.int .u8 0, Value.int .u8 0, Value.int .u8 0, Value.int .u8 0, Value.int .u8 0, Value.int .u8 0, Value.int .u8 0, Value.int .u8 0, Value.int .u8 0, Value.int .u8 0, Value.int .u8 0, Value.int .u8 0, Value.int .u8 0, Value.int .u8 0, Value.int .u8 0, Value.int .u8 0, Value.int .u8 0, Value.int .u8 0] 25
  have hb0 : Below w.heap.size w (w.alloc (.cells #[Value.int .u8 0, Value.int .u8 0, Value.int .u8 0, Value.int .u8 0, Value.int .u8 0, Value.int .u8 0, Value.int .u8 0, Value.int .u8 0, Value.int .u8 0, Value.int .u8 0, Value.int .u8 0, Value.int .u8 0, Value.int .u8 0, Value.int .u8 0, Value.int .u8 0, Value.int .u8 0, Value.int .u8 0, Value.int .u8 0, Value.int .u8 0, Value.int .u8 0, Value.int .u8 0, Value.int .u8 0, Value.int .u8 0, Value.int .u8 0, Value.int .u8 0, Value.int .u8 0, Value.int .u8 0, Value.int .u8 0, Value.int .u8 0, Value.int .u8 0, Value.int .u8 0, Value.int .u8 0] 25)) := Below.alloc (Below.refl _ _) (Nat.le_refl _) _
  clear hE hL h1s
  go_enter Tryd.func13, Tryd.ntmps13
  go_upto_region 1 with fail
  refine wp_nameE _ (fun W1 hX => ?_)
  have y9 : W1.heap[w.heap.size]? = some (.cells #[Value.int .u8 0, Value.int .u8 0, Value.int .u8 0, Value.int .u8 0, Value.int .u8 0, Value.int .u8 0, Value.int .u8 0, Value.int .u8 0, Value.int .u8 0, Value.int .u8 0, Value.int .u8 0, Value.int .u8 0, Value.int .u8 0, Value.int .u8 0, Value.int .u8 0, Value.int .u8 0, Value.int .u8 0, Value.int .u8 0, Value.int .u8 0, Value.int .u8 0, Value.int .u8 0, Value.int .u8 0, Value.int .u8 0, Value.int .u8 0, Value.int .u8 0, Value.int .u8 0, Value.int .u8 0, Value.int .u8 0, Value.int .u8 0, Value.int .u8 0, Value.int .u8 0, Value.int .u8 0] 25 (0, 0)) := by rw [hX]; exact hq
  have hbel : Below w.heap.size w W1 := by rw [hX]; exact hb0
  clear hX hq hb0
  have hy9 : w.heap.size < W1.heap.size := (Array.getElem?_eq_some_iff.1 y9).1
  go_wp2_with (first | (go_at_call 67; refine (CE _).mono ?_; rintro e wx ⟨rfl, hbx⟩; have y9 := cells_of y9 hbx hy9; have hy9 := Nat.lt_of_lt_of_le hy9 hbx.size; have hbel := hbel.trans (hbx.mono hbel.size); clear hbx) | (go_at_call 66; refine (CS _).mono ?_; rintro e wy ⟨rfl, hby⟩; have y9 := cells_of y9 hby hy9; have hbel := hbel.trans (hby.mono hbel.size)) | (refine wpList_storeRowTo (Z := hrow L) rfl (.tmp 4) (.tmp 13) 25 rfl (by rw [hsz]; kernel_rfl) rfl (by rfl) y9 (by rw [hsz]; rfl) hone ?_))
  refine bodyPost_ret (v := .agg (hrow (L))) ?_ rfl ?_
  · simp [results, Tryd.results13, asAddr]
    exact run_loadVar_row _ _ 25 25 _ (0, 0) _ (setRow_heap _ _ _ _ _ _ y9) Tryd.underlying25 rfl (by rw [hsz]; kernel_rfl)
  exact ⟨rfl, below_setRow hbel (Nat.le_refl _) _⟩
end Go.Proofs.YtfikbaoiialfeaaDoor
