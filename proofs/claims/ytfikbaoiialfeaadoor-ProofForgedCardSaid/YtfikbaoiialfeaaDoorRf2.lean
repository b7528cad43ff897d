/- The document's proofs that may be. -/
import Derived.Test.YtfikbaoiialfeaaDoorGU
import Derived.Test.YtfikbaoiialfeaaDoorGP
import Derived.Test.YtfikbaoiialfeaaDoorRefDeep
import Derived.BigRegion
import Derived.RegionTactic
import Derived.BigQuiet
import Derived.Deep.QuietTactic
import Derived.Deep.MidRow
import Derived.LoopTactic
import Derived.BigFrame
import Derived.WalkKit
import Derived.ProofKit
import Derived.Handy
import Derived.Below
import Derived.Lib.Hide
import Derived.IntWalk
import Derived.Outline
import Derived.WalkLawsBesides
import Derived.WalkSpells
namespace Go.Proofs.YtfikbaoiialfeaaDoor
open Go.RowKit
attribute [local go_sem] strV
set_option linter.unusedVariables false
set_option maxRecDepth 100000 in
set_option maxHeartbeats 6400000 in
theorem refMayPf_any (ct : Int) (a : Option Addr) (n cap : Nat) (xs : List LeafV) (w : World) (h : LvsAt w a xs) (hn : xs.length = n) (hnm : n ≤ maxLen) :
    Calls Tryd.prog 46 #[.agg #[.int .i64 ct, .slice a n cap]] w fun e w' => e = .returned (.bool (mayPfB ct xs)) ∧ Below w.heap.size w w' := by
  have HN := Lib.hid hn
  unfold maxLen at hnm
  by_cases c1 : ct < 0
  · have d1 : decide (ct < 0) = true := decide_eq_true c1
    rw [show mayPfB ct xs = false by unfold mayPfB; rw [decide_eq_false (show ¬ 0 ≤ ct by omega)]; simp]
    clear c1 hn
    have hg0 := heap_push w #[.int .i64 ct, .slice a n cap] 46
    have hbA : Below w.heap.size w (w.alloc (.cells #[.int .i64 ct, .slice a n cap] 46)) := Below.alloc (Below.refl _ _) (Nat.le_refl _) _
    go_enter Tryd.func46, Tryd.ntmps46
    go_upto_region 1 with fail
    refine wp_nameE _ (fun W1 hX => ?_)
    have hg : W1.heap[w.heap.size]? = some (.cells #[.int .i64 ct, .slice a n cap] 46 (0, 0)) := by rw [hX]; exact hg0
    have hbel : Below w.heap.size w W1 := by rw [hX]; exact hbA
    clear hX hg0 hbA
    have hgl : w.heap.size < W1.heap.size := (Array.getElem?_eq_some_iff.1 hg).1
    have q0 := cell_heap hg 0; have q1 := cell_heap hg 1
    go_wp2
    go_ret
    exact ⟨rfl, hbel⟩
  have d1 : decide (ct < 0) = false := decide_eq_false c1
  by_cases c2 : 1073741824 < ct
  · have d2 : decide (1073741824 < ct) = true := decide_eq_true c2
    rw [show mayPfB ct xs = false by unfold mayPfB; rw [decide_eq_false (show ¬ ct ≤ 1073741824 by omega)]; simp]
    clear c1 c2 hn
    have hg0 := heap_push w #[.int .i64 ct, .slice a n cap] 46
    have hbA : Below w.heap.size w (w.alloc (.cells #[.int .i64 ct, .slice a n cap] 46)) := Below.alloc (Below.refl _ _) (Nat.le_refl _) _
    go_enter Tryd.func46, Tryd.ntmps46
    go_upto_region 1 with fail
    refine wp_nameE _ (fun W1 hX => ?_)
    have hg : W1.heap[w.heap.size]? = some (.cells #[.int .i64 ct, .slice a n cap] 46 (0, 0)) := by rw [hX]; exact hg0
    have hbel : Below w.heap.size w W1 := by rw [hX]; exact hbA
    clear hX hg0 hbA
    have hgl : w.heap.size < W1.heap.size := (Array.getElem?_eq_some_iff.1 hg).1
    have q0 := cell_heap hg 0; have q1 := cell_heap hg 1
    go_wp2
    go_ret
    exact ⟨rfl, hbel⟩
  have d2 : decide (1073741824 < ct) = false := decide_eq_false c2
  by_cases c3 : 2 < n
  · have d3 : decide (2 < (n : Int)) = true := decide_eq_true (by omega)
    have d3n : decide (2 < n) = true := decide_eq_true c3
    rw [show mayPfB ct xs = false by unfold mayPfB; rw [decide_eq_false (show ¬ xs.length ≤ 2 by omega)]; simp]
    clear c1 c2 c3 hn
    have hg0 := heap_push w #[.int .i64 ct, .slice a n cap] 46
    have hbA : Below w.heap.size w (w.alloc (.cells #[.int .i64 ct, .slice a n cap] 46)) := Below.alloc (Below.refl _ _) (Nat.le_refl _) _
    go_enter Tryd.func46, Tryd.ntmps46
    go_upto_region 1 with fail
    refine wp_nameE _ (fun W1 hX => ?_)
    have hg : W1.heap[w.heap.size]? = some (.cells #[.int .i64 ct, .slice a n cap] 46 (0, 0)) := by rw [hX]; exact hg0
    have hbel : Below w.heap.size w W1 := by rw [hX]; exact hbA
    clear hX hg0 hbA
    have hgl : w.heap.size < W1.heap.size := (Array.getElem?_eq_some_iff.1 hg).1
    have q0 := cell_heap hg 0; have q1 := cell_heap hg 1
    go_wp2
    go_ret
    exact ⟨rfl, hbel⟩
  have d3 : decide (2 < (n : Int)) = false := decide_eq_false (by omega)
  have d3n : decide (2 < n) = false := decide_eq_false c3
  obtain ⟨r, hr⟩ : ∃ r, xs.all (mayLeafB ct) = r := ⟨_, rfl⟩
  rw [show mayPfB ct xs = r by unfold mayPfB; rw [decide_eq_true (show 0 ≤ ct by omega), decide_eq_true (show ct ≤ 1073741824 by omega), decide_eq_true (show xs.length ≤ 2 by omega), hr]; rfl]
  have HF := Lib.hid hr
  clear hr hn c1 c2
  have hg0 := heap_push w #[.int .i64 ct, .slice a n cap] 46
  have hbA : Below w.heap.size w (w.alloc (.cells #[.int .i64 ct, .slice a n cap] 46)) := Below.alloc (Below.refl _ _) (Nat.le_refl _) _
  go_enter Tryd.func46, Tryd.ntmps46
  go_upto_region 1 with fail
  refine wp_nameE _ (fun W1 hX => ?_)
  have hg : W1.heap[w.heap.size]? = some (.cells #[.int .i64 ct, .slice a n cap] 46 (0, 0)) := by rw [hX]; exact hg0
  have hbel : Below w.heap.size w W1 := by rw [hX]; exact hbA
  clear hX hg0 hbA
  have hgl : w.heap.size < W1.heap.size := (Array.getElem?_eq_some_iff.1 hg).1
  have q0 := cell_heap hg 0; have q1 := cell_heap hg 1
  go_upto_region 4 with fail
  go_loopw [3] (fun i wr => ∃ k : Nat, k ≤ n ∧ i = .int .i64 k ∧ Hid ((xs.take k).all (mayLeafB ct) = true) ∧ Below W1.heap.size W1 wr) (fun i _ => n - (intOf i).toNat)
  case atStart => exact ⟨0, Nat.zero_le _, rfl, Lib.hid (by simp), Below.refl _ _⟩
  case round =>
    obtain ⟨k, hk, rfl, HT, hb⟩ := hrel
    have hbel := hbel.trans (hb.mono hbel.size)
    have hg := cells_of hg hb hgl
    have hgl := Nat.lt_of_lt_of_le hgl hb.size
    have q0 := cell_heap hg 0; have q1 := cell_heap hg 1
    by_cases hlt : k < n
    · have d1 : decide ((k : Int) < (n : Int)) = true := decide_eq_true (by omega)
      have d1n : decide (k < n) = true := decide_eq_true hlt
      have hkl : k < xs.length := by rw [HN.out]; exact hlt
      obtain ⟨b1, o1, rfl, hb1, hg1⟩ := lv_range (h.row.below hbel) hkl
      have ok1 := (h.each _ (List.getElem_mem hkl)).below hbel
      have hstep := all_takeL (p := mayLeafB ct) hkl
      have hbad := all_badL (p := mayLeafB ct) hkl
      obtain ⟨⟨key, val, idx, pa, pn, pc, path⟩, hp⟩ : ∃ p, xs[k] = p := ⟨_, rfl⟩
      rw [hp] at hg1 ok1 hstep hbad
      have hg1 : wr.rangeAt b1 (o1 + k * 4) [.string key, .string val, .int .i64 idx, .slice pa pn pc] := hg1
      have hpl : path.length = pn := ok1.len
      rw [HT.out] at hstep
      have n0 : (0 : Int) ≤ (k : Int) := by omega
      have n1' : (k : Int) < (n : Int) := by omega
      have n2' : ((k : Nat) : Int).toNat = k := by omega
      clear hp ok1
      go_upto_region 7 with (first | (refine wpList_load_mid rfl 94 (.tmp 29) rfl b1 _ rfl _ _ hg1 Tryd.underlying94 rfl (by kernel_rfl) ?_) | (refine wpList_storeRowTo rfl (.tmp 4) (.tmp 30) 94 rfl (by kernel_rfl) rfl (by rfl) (heap_push _ _ _) rfl (leaf_one _ _ _ _ _ _) ?_))
      refine wp_nameE _ (fun W5 hX => ?_)
      have hb5 : Below wr.heap.size wr W5 := by rw [hX]; first | exact below_setRow (Below.alloc (Below.refl _ _) (Nat.le_refl _) _) (Nat.le_refl _) _ | exact Below.alloc (Below.refl _ _) (Nat.le_refl _) _
      have hx : W5.heap[wr.heap.size]? = some (.cells #[.string key, .string val, .int .i64 idx, .slice pa pn pc] 94 (0, 0)) := by rw [hX]; first | exact setRow_heap _ _ _ _ _ _ (heap_push _ _ _) | exact heap_push _ _ _
      clear hX hg1
      have hxl : wr.heap.size < W5.heap.size := (Array.getElem?_eq_some_iff.1 hx).1
      have hb := hb.trans (hb5.mono hb.size)
      have hg := cells_of hg hb5 hgl
      have hgl := Nat.lt_of_lt_of_le hgl hb5.size
      have hbel := hbel.trans (hb5.mono hbel.size)
      have q0 := cell_heap hg 0; have q1 := cell_heap hg 1; have x0 := cell_heap hx 0; have x1 := cell_heap hx 1; have x2 := cell_heap hx 2; have x3 := cell_heap hx 3
      have CD := fun W => refDeep_any ct idx W
      obtain ⟨D, hD⟩ : ∃ d, deepI ct idx = d := ⟨_, rfl⟩
      have hml : mayLeafB ct ⟨key, val, idx, pa, pn, pc, path⟩ = (decide (0 < key.size) && decide (key.size ≤ 160) && decide (0 < val.size) && decide (val.size ≤ 64) && decide (0 ≤ idx) && decide (idx < ct) && decide ((pn : Int) = D)) := by unfold mayLeafB fitsB; simp only [hD, hpl]
      simp only [hD] at CD
      rw [hml] at hstep hbad
      have HSTEP := Lib.hid hstep
      have HBAD := Lib.hid hbad
      clear hml hD hpl hstep hbad
      have hcb := (beyond_cells (W := W5)).1
      have hfz := (beyond_cells (W := W5)).2
      by_cases c09 : key.size < 1
      · have f0n : decide (key.size < 1) = true := decide_eq_true c09
        have f0 : decide ((key.size : Int) < 1) = true := decide_eq_true (by omega)
        obtain rfl : false = r := by rw [← HF.out, HBAD.out (by rw [decide_eq_false (show ¬ 0 < key.size by omega)]; simp)]
        clear HSTEP HBAD c09
        refine wp_region_below (by kernel_rfl) (by kernel_rfl) ?_
        repeat (go_big_quiet_step (first | (go_at_call 26; exact quiet_below (CD _))))
        intro w9 hw9
        have hb9 := beyond_below hw9
        go_wp2
        go_ret
        exact ⟨rfl, hbel.trans (hb9.mono hbel.size)⟩
      have f0n : decide (key.size < 1) = false := decide_eq_false c09
      have f0 : decide ((key.size : Int) < 1) = false := decide_eq_false (by omega)
      by_cases c19 : 160 < key.size
      · have f1n : decide (160 < key.size) = true := decide_eq_true c19
        have f1 : decide (160 < (key.size : Int)) = true := decide_eq_true (by omega)
        obtain rfl : false = r := by rw [← HF.out, HBAD.out (by rw [decide_eq_false (show ¬ key.size ≤ 160 by omega)]; simp)]
        clear HSTEP HBAD c09 c19
        refine wp_region_below (by kernel_rfl) (by kernel_rfl) ?_
        repeat (go_big_quiet_step (first | (go_at_call 26; exact quiet_below (CD _))))
        intro w9 hw9
        have hb9 := beyond_below hw9
        go_wp2
        go_ret
        exact ⟨rfl, hbel.trans (hb9.mono hbel.size)⟩
      have f1n : decide (160 < key.size) = false := decide_eq_false c19
      have f1 : decide (160 < (key.size : Int)) = false := decide_eq_false (by omega)
      by_cases c29 : val.size < 1
      · have f2n : decide (val.size < 1) = true := decide_eq_true c29
        have f2 : decide ((val.size : Int) < 1) = true := decide_eq_true (by omega)
        obtain rfl : false = r := by rw [← HF.out, HBAD.out (by rw [decide_eq_false (show ¬ 0 < val.size by omega)]; simp)]
        clear HSTEP HBAD c09 c19 c29
        refine wp_region_below (by kernel_rfl) (by kernel_rfl) ?_
        repeat (go_big_quiet_step (first | (go_at_call 26; exact quiet_below (CD _))))
        intro w9 hw9
        have hb9 := beyond_below hw9
        go_wp2
        go_ret
        exact ⟨rfl, hbel.trans (hb9.mono hbel.size)⟩
      have f2n : decide (val.size < 1) = false := decide_eq_false c29
      have f2 : decide ((val.size : Int) < 1) = false := decide_eq_false (by omega)
      by_cases c39 : 64 < val.size
      · have f3n : decide (64 < val.size) = true := decide_eq_true c39
        have f3 : decide (64 < (val.size : Int)) = true := decide_eq_true (by omega)
        obtain rfl : false = r := by rw [← HF.out, HBAD.out (by rw [decide_eq_false (show ¬ val.size ≤ 64 by omega)]; simp)]
        clear HSTEP HBAD c09 c19 c29 c39
        refine wp_region_below (by kernel_rfl) (by kernel_rfl) ?_
        repeat (go_big_quiet_step (first | (go_at_call 26; exact quiet_below (CD _))))
        intro w9 hw9
        have hb9 := beyond_below hw9
        go_wp2
        go_ret
        exact ⟨rfl, hbel.trans (hb9.mono hbel.size)⟩
      have f3n : decide (64 < val.size) = false := decide_eq_false c39
      have f3 : decide (64 < (val.size : Int)) = false := decide_eq_false (by omega)
      by_cases c49 : idx < 0
      · have f4n : decide (idx < 0) = true := decide_eq_true c49
        obtain rfl : false = r := by rw [← HF.out, HBAD.out (by rw [decide_eq_false (show ¬ 0 ≤ idx by omega)]; simp)]
        clear HSTEP HBAD c09 c19 c29 c39 c49
        refine wp_region_below (by kernel_rfl) (by kernel_rfl) ?_
        repeat (go_big_quiet_step (first | (go_at_call 26; exact quiet_below (CD _))))
        intro w9 hw9
        have hb9 := beyond_below hw9
        go_wp2
        go_ret
        exact ⟨rfl, hbel.trans (hb9.mono hbel.size)⟩
      have f4n : decide (idx < 0) = false := decide_eq_false c49
      by_cases c59 : ct ≤ idx
      · have f5n : decide (ct ≤ idx) = true := decide_eq_true c59
        obtain rfl : false = r := by rw [← HF.out, HBAD.out (by rw [decide_eq_false (show ¬ idx < ct by omega)]; simp)]
        clear HSTEP HBAD c09 c19 c29 c39 c49 c59
        refine wp_region_below (by kernel_rfl) (by kernel_rfl) ?_
        repeat (go_big_quiet_step (first | (go_at_call 26; exact quiet_below (CD _))))
        intro w9 hw9
        have hb9 := beyond_below hw9
        go_wp2
        go_ret
        exact ⟨rfl, hbel.trans (hb9.mono hbel.size)⟩
      have f5n : decide (ct ≤ idx) = false := decide_eq_false c59
      by_cases e3 : (pn : Int) = D
      · have f9 : ((pn : Int) != D) = false := by rw [e3]; simp
        have hs9 : (xs.take (k + 1)).all (mayLeafB ct) = true := by rw [HSTEP.out, decide_eq_true (show 0 < key.size by omega), decide_eq_true (show key.size ≤ 160 by omega), decide_eq_true (show 0 < val.size by omega), decide_eq_true (show val.size ≤ 64 by omega), decide_eq_true (show 0 ≤ idx by omega), decide_eq_true (show idx < ct by omega), decide_eq_true e3]; rfl
        have HS := Lib.hid hs9
        clear HSTEP HBAD hs9 e3 c09 c19 c29 c39 c49 c59
        refine wp_region_below (by kernel_rfl) (by kernel_rfl) ?_
        repeat (go_big_quiet_step (first | (go_at_call 26; exact quiet_below (CD _))))
        intro w9 hw9
        have hb9 := beyond_below hw9
        go_wp2
        go_roundw
        case rel => exact ⟨k + 1, by omega, by go_num, HS, hb.trans (hb9.mono hb.size)⟩
        case measure => (simp [intOf]) <;> omega
      · have f9 : ((pn : Int) != D) = true := by rw [bne_iff_ne]; exact e3
        obtain rfl : false = r := by rw [← HF.out, HBAD.out (by rw [decide_eq_false e3]; simp)]
        clear HSTEP HBAD e3 c09 c19 c29 c39 c49 c59
        refine wp_region_below (by kernel_rfl) (by kernel_rfl) ?_
        repeat (go_big_quiet_step (first | (go_at_call 26; exact quiet_below (CD _))))
        intro w9 hw9
        have hb9 := beyond_below hw9
        go_wp2
        go_ret
        exact ⟨rfl, hbel.trans (hb9.mono hbel.size)⟩
    · have d9 : decide ((k : Int) < (n : Int)) = false := decide_eq_false (by omega)
      have d9n : decide (k < n) = false := decide_eq_false hlt
      obtain rfl : true = r := by rw [← HF.out, ← HT.out, List.take_of_length_le (by rw [HN.out]; omega)]
      go_wp2
      go_ret
      exact ⟨rfl, hbel⟩
end Go.Proofs.YtfikbaoiialfeaaDoor
