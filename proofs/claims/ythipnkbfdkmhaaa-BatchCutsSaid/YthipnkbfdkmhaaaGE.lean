/- The document's Half and Deep. The document's proofs that may be. The document's headers and messages that may be. -/
import Derived.Test.YthipnkbfdkmhaaaTree
import Derived.Deep.Cut
import Derived.WalkKit
import Derived.ProofKit
import Derived.Handy
import Derived.Below
import Derived.Lib.Hide
import Derived.IntWalk
import Derived.Outline
import Derived.WalkLawsBesides
import Derived.WalkSpells
import Derived.Test.YthipnkbfdkmhaaaPf2
import Derived.BigRegion
import Derived.RegionTactic
import Derived.BigQuiet
import Derived.Deep.QuietTactic
import Derived.Deep.MidRow
import Derived.LoopTactic
import Derived.BigFrame
import Derived.Test.YthipnkbfdkmhaaaRf1
import Derived.Test.YthipnkbfdkmhaaaSG
import Derived.Test.YthipnkbfdkmhaaaMsg4
namespace Go.Proofs.Ythipnkbfdkmhaaa
open Go.RowKit
attribute [local go_sem] strV
set_option linter.unusedVariables false
theorem halfN_of {n j : Nat} (h1 : 2 ^ j < n) (h2 : n ≤ 2 ^ (j + 1)) : halfN n = 2 ^ j := by
  unfold halfN
  congr 1
  have h0 : n - 1 ≠ 0 := by have := Nat.two_pow_pos j; omega
  have a := (Nat.le_log2 h0).2 (show 2 ^ j ≤ n - 1 by omega)
  have b := (Nat.log2_lt h0).2 (show n - 1 < 2 ^ (j + 1) by omega)
  omega
set_option maxRecDepth 100000 in
set_option maxHeartbeats 4000000 in
theorem refHalf_any (n : Int) (w : World) :
    Calls Try.prog 126 #[.int .i64 n] w fun e w' => e = .returned (.int .i64 (halfI n)) ∧ Below w.heap.size w w' := by
  by_cases c1 : n < 2
  · have d1 : decide (n < 2) = true := decide_eq_true c1
    rw [show halfI n = 0 by unfold halfI; rw [if_pos (.inl c1)]]
    go_enter Try.func126, Try.ntmps126
    go_wp2
    go_ret
    exact ⟨rfl, Below.refl _ _⟩
  have d1 : decide (n < 2) = false := decide_eq_false c1
  by_cases c2 : 1073741824 < n
  · have d2 : decide (1073741824 < n) = true := decide_eq_true c2
    rw [show halfI n = 0 by unfold halfI; rw [if_pos (.inr c2)]]
    go_enter Try.func126, Try.ntmps126
    go_wp2
    go_ret
    exact ⟨rfl, Below.refl _ _⟩
  have d2 : decide (1073741824 < n) = false := decide_eq_false c2
  obtain ⟨m, rfl⟩ : ∃ m : Nat, n = m := ⟨n.toNat, by omega⟩
  rw [show halfI (m : Int) = (halfN m : Nat) by unfold halfI; rw [if_neg (by omega), Int.toNat_natCast]]
  obtain ⟨H, hH⟩ : ∃ H, halfN m = H := ⟨_, rfl⟩
  rw [hH]
  have HH := Lib.hid hH
  clear hH
  go_enter Try.func126, Try.ntmps126
  go_upto_region 4 with fail
  go_loopw [3] (fun a wr => ∃ h j : Nat, Hid (h = 2 ^ j) ∧ 1 ≤ h ∧ h < m ∧ a = .int .i64 h ∧ wr = w) (fun a _ => m - (intOf a).toNat)
  case atStart => exact ⟨1, 0, Lib.hid rfl, by omega, by omega, rfl, rfl⟩
  case round =>
    obtain ⟨h, j, HJ, h1, h2, rfl, rfl⟩ := hrel
    have n1 : (1 : Int) ≤ (h : Int) := by omega
    have n2 : (h : Int) ≤ 1073741824 := by omega
    by_cases hlt : 2 * h < m
    · have e1 : decide (2 * (h : Int) < (m : Int)) = true := decide_eq_true (by omega)
      have e1n : decide (2 * h < m) = true := decide_eq_true hlt
      go_wp2
      go_roundw
      case rel => exact ⟨2 * h, j + 1, Lib.hid (by rw [Nat.pow_succ, ← HJ.out]; omega), by omega, hlt, by go_num, by first | rfl | trivial⟩
      case measure => (simp [intOf]) <;> omega
    · have e1 : decide (2 * (h : Int) < (m : Int)) = false := decide_eq_false (by omega)
      have e1n : decide (2 * h < m) = false := decide_eq_false hlt
      have hfin : H = h := by
        rw [← HH.out, HJ.out]
        exact halfN_of (by rw [← HJ.out]; exact h2) (by rw [Nat.pow_succ, ← HJ.out]; omega)
      subst hfin
      go_wp2
      go_ret
      exact ⟨rfl, Below.refl _ _⟩
theorem refHalfN_any (n : Nat) (w : World) (h2 : 2 ≤ n) (h3 : n ≤ 1073741824) :
    Calls Try.prog 126 #[.int .i64 n] w fun e w' => e = .returned (.int .i64 (halfN n : Nat)) ∧ Below w.heap.size w w' := by
  have := refHalf_any (n : Int) w
  rw [show halfI (n : Int) = (halfN n : Nat) by unfold halfI; rw [if_neg (by omega), Int.toNat_natCast]] at this
  exact this
set_option maxRecDepth 100000 in
set_option maxHeartbeats 4000000 in
theorem refDeep_any (n i : Int) (w : World) :
    Calls Try.prog 110 #[.int .i64 n, .int .i64 i] w fun e w' => e = .returned (.int .i64 (deepI n i)) ∧ Below w.heap.size w w' := by
  have hbad : ¬ (n ≤ 1073741824 ∧ 0 ≤ i ∧ i < n) → deepI n i = 0 := fun h => by
    unfold deepI insB
    have : (decide (n ≤ 1073741824) && decide (0 ≤ i) && decide (i < n)) = false := by
      cases h9 : (decide (n ≤ 1073741824) && decide (0 ≤ i) && decide (i < n))
      · rfl
      · simp only [Bool.and_eq_true, decide_eq_true_eq] at h9; exact absurd ⟨h9.1.1, h9.1.2, h9.2⟩ h
    rw [this]; rfl
  by_cases c1 : i < 0
  · have d1 : decide (i < 0) = true := decide_eq_true c1
    rw [hbad (by omega)]
    clear hbad
    go_enter Try.func110, Try.ntmps110
    go_wp2
    go_ret
    exact ⟨rfl, Below.refl _ _⟩
  have d1 : decide (i < 0) = false := decide_eq_false c1
  by_cases c2 : n ≤ i
  · have d2 : decide (n ≤ i) = true := decide_eq_true c2
    rw [hbad (by omega)]
    clear hbad
    go_enter Try.func110, Try.ntmps110
    go_wp2
    go_ret
    exact ⟨rfl, Below.refl _ _⟩
  have d2 : decide (n ≤ i) = false := decide_eq_false c2
  by_cases c3 : 1073741824 < n
  · have d3 : decide (1073741824 < n) = true := decide_eq_true c3
    rw [hbad (by omega)]
    clear hbad
    go_enter Try.func110, Try.ntmps110
    go_wp2
    go_ret
    exact ⟨rfl, Below.refl _ _⟩
  have d3 : decide (1073741824 < n) = false := decide_eq_false c3
  clear hbad
  obtain ⟨i, rfl⟩ : ∃ m : Nat, i = m := ⟨i.toNat, by omega⟩
  obtain ⟨n, rfl⟩ : ∃ m : Nat, n = m := ⟨n.toNat, by omega⟩
  have d2n : decide (n ≤ i) = false := decide_eq_false (by omega)
  have hn3 : n ≤ 1073741824 := by omega
  have hiN : i < n := by omega
  have hD30 := deepN_30 (i := i) hn3
  obtain ⟨D, hD⟩ : ∃ D, deepN n i = D := ⟨_, rfl⟩
  rw [show deepI (n : Int) (i : Int) = (D : Nat) by unfold deepI insB; rw [decide_eq_true (by omega), decide_eq_true (by omega), decide_eq_true (by omega)]; simp [hD]]
  rw [hD] at hD30
  have HD := Lib.hid hD
  clear hD c1 c2 c3
  go_enter Try.func110, Try.ntmps110
  go_upto_region 4 with fail
  go_loopw [0, 1, 5] (fun a b c wr => ∃ N I d : Nat, Below w.heap.size w wr ∧ I < N ∧ N ≤ 1073741824 ∧ Hid (d + deepN N I = D) ∧ a = .int .i64 N ∧ b = .int .i64 I ∧ c = .int .i64 d) (fun a _ _ _ => (intOf a).toNat)
  case atStart => exact ⟨n, i, 0, Below.refl _ _, hiN, hn3, Lib.hid (by rw [HD.out]; omega), rfl, rfl, rfl⟩
  case round =>
    obtain ⟨N, I, d, hbel, h1, h2, HS, rfl, rfl, rfl⟩ := hrel
    have hdD : d ≤ 30 := by have := HS.out; omega
    by_cases hlt : 1 < N
    · have e1 : decide (1 < (N : Int)) = true := decide_eq_true (by omega)
      have e1n : decide (1 < N) = true := decide_eq_true hlt
      have CH := fun W => refHalfN_any N W hlt h2
      have hl := halfN_lt hlt
      have hp := halfN_pos N
      have hdl := deepN_left (n := N) (i := I) hlt
      have hdr := deepN_right (n := N) (i := I) hlt
      obtain ⟨h, hh⟩ : ∃ h, halfN N = h := ⟨_, rfl⟩
      simp only [hh] at CH hl hp hdl hdr
      clear hh
      have m1 : (1 : Int) ≤ (h : Int) := by omega
      have m2 : (h : Int) < (N : Int) := by omega
      have m3 : (N : Int) ≤ 1073741824 := by omega
      have m4 : (d : Int) ≤ 30 := by omega
      by_cases hI : I < h
      · have e2 : decide ((I : Int) < (h : Int)) = true := decide_eq_true (by omega)
        have e2n : decide (I < h) = true := decide_eq_true hI
        have HS2 : Hid (d + 1 + deepN h I = D) := Lib.hid (by have := HS.out; have := hdl hI; omega)
        clear hdl hdr HS
        go_wp2_with (go_at_call 126; refine (CH _).mono ?_; rintro e w2 ⟨rfl, hb⟩; have hbel := hbel.trans (hb.mono hbel.size))
        go_roundw
        case rel => exact ⟨h, I, d + 1, hbel, hI, by omega, HS2, rfl, rfl, by go_num⟩
        case measure => (simp [intOf]) <;> omega
      · have e2 : decide ((I : Int) < (h : Int)) = false := decide_eq_false (by omega)
        have e2n : decide (I < h) = false := decide_eq_false hI
        have HS2 : Hid (d + 1 + deepN (N - h) (I - h) = D) := Lib.hid (by have := HS.out; have := hdr hI; omega)
        clear hdl hdr HS
        have m5 : (h : Int) ≤ (I : Int) := by omega
        go_wp2_with (go_at_call 126; refine (CH _).mono ?_; rintro e w2 ⟨rfl, hb⟩; have hbel := hbel.trans (hb.mono hbel.size))
        go_roundw
        case rel => exact ⟨N - h, I - h, d + 1, hbel, by omega, by omega, HS2, congrArg (Value.int .i64) (by omega), congrArg (Value.int .i64) (by omega), by go_num⟩
        case measure => (simp [intOf]) <;> omega
    · have e1 : decide (1 < (N : Int)) = false := decide_eq_false (by omega)
      have e1n : decide (1 < N) = false := decide_eq_false hlt
      have hfin : d = D := by have := HS.out; rw [deepN_small (by omega)] at this; omega
      subst hfin
      go_wp2
      go_ret
      exact ⟨rfl, hbel⟩
end Go.Proofs.Ythipnkbfdkmhaaa
namespace Go.Proofs.Ythipnkbfdkmhaaa
open Go.RowKit
attribute [local go_sem] strV
set_option linter.unusedVariables false
set_option maxRecDepth 100000 in
set_option maxHeartbeats 6400000 in
theorem refMayPf_any (ct : Int) (a : Option Addr) (n cap : Nat) (xs : List LeafV) (w : World) (h : LvsAt w a xs) (hn : xs.length = n) (hnm : n ≤ maxLen) :
    Calls Try.prog 73 #[.agg #[.int .i64 ct, .slice a n cap]] w fun e w' => e = .returned (.bool (mayPfB ct xs)) ∧ Below w.heap.size w w' := by
  have HN := Lib.hid hn
  unfold maxLen at hnm
  by_cases c1 : ct < 0
  · have d1 : decide (ct < 0) = true := decide_eq_true c1
    rw [show mayPfB ct xs = false by unfold mayPfB; rw [decide_eq_false (show ¬ 0 ≤ ct by omega)]; simp]
    clear c1 hn
    have hg0 := heap_push w #[.int .i64 ct, .slice a n cap] 32
    have hbA : Below w.heap.size w (w.alloc (.cells #[.int .i64 ct, .slice a n cap] 32)) := Below.alloc (Below.refl _ _) (Nat.le_refl _) _
    go_enter Try.func73, Try.ntmps73
    go_upto_region 1 with fail
    refine wp_nameE _ (fun W1 hX => ?_)
    have hg : W1.heap[w.heap.size]? = some (.cells #[.int .i64 ct, .slice a n cap] 32 (0, 0)) := by rw [hX]; exact hg0
    have hbel : Below w.heap.size w W1 := by rw [hX]; exact hbA
    clear hX hg0 hbA
    have hgl : w.heap.size < W1.heap.size := (Array.getElem?_eq_some_iff.1 hg).1
    have q0 := cell_heap hg 0; have q1 := cell_heap hg 1
    go_wp2
    go_ret
    exact ⟨rfl, hbel⟩
  have d1 : decide (ct < 0) = false := decide_eq_false c1
  by_cases c2 : 1073741824 < ct
  · have d2 : decide (1073741824 < ct) = true := decide_eq_true c2
    rw [show mayPfB ct xs = false by unfold mayPfB; rw [decide_eq_false (show ¬ ct ≤ 1073741824 by omega)]; simp]
    clear c1 c2 hn
    have hg0 := heap_push w #[.int .i64 ct, .slice a n cap] 32
    have hbA : Below w.heap.size w (w.alloc (.cells #[.int .i64 ct, .slice a n cap] 32)) := Below.alloc (Below.refl _ _) (Nat.le_refl _) _
    go_enter Try.func73, Try.ntmps73
    go_upto_region 1 with fail
    refine wp_nameE _ (fun W1 hX => ?_)
    have hg : W1.heap[w.heap.size]? = some (.cells #[.int .i64 ct, .slice a n cap] 32 (0, 0)) := by rw [hX]; exact hg0
    have hbel : Below w.heap.size w W1 := by rw [hX]; exact hbA
    clear hX hg0 hbA
    have hgl : w.heap.size < W1.heap.size := (Array.getElem?_eq_some_iff.1 hg).1
    have q0 := cell_heap hg 0; have q1 := cell_heap hg 1
    go_wp2
    go_ret
    exact ⟨rfl, hbel⟩
  have d2 : decide (1073741824 < ct) = false := decide_eq_false c2
  by_cases c3 : 2 < n
  · have d3 : decide (2 < (n : Int)) = true := decide_eq_true (by omega)
    have d3n : decide (2 < n) = true := decide_eq_true c3
    rw [show mayPfB ct xs = false by unfold mayPfB; rw [decide_eq_false (show ¬ xs.length ≤ 2 by omega)]; simp]
    clear c1 c2 c3 hn
    have hg0 := heap_push w #[.int .i64 ct, .slice a n cap] 32
    have hbA : Below w.heap.size w (w.alloc (.cells #[.int .i64 ct, .slice a n cap] 32)) := Below.alloc (Below.refl _ _) (Nat.le_refl _) _
    go_enter Try.func73, Try.ntmps73
    go_upto_region 1 with fail
    refine wp_nameE _ (fun W1 hX => ?_)
    have hg : W1.heap[w.heap.size]? = some (.cells #[.int .i64 ct, .slice a n cap] 32 (0, 0)) := by rw [hX]; exact hg0
    have hbel : Below w.heap.size w W1 := by rw [hX]; exact hbA
    clear hX hg0 hbA
    have hgl : w.heap.size < W1.heap.size := (Array.getElem?_eq_some_iff.1 hg).1
    have q0 := cell_heap hg 0; have q1 := cell_heap hg 1
    go_wp2
    go_ret
    exact ⟨rfl, hbel⟩
  have d3 : decide (2 < (n : Int)) = false := decide_eq_false (by omega)
  have d3n : decide (2 < n) = false := decide_eq_false c3
  obtain ⟨r, hr⟩ : ∃ r, xs.all (mayLeafB ct) = r := ⟨_, rfl⟩
  rw [show mayPfB ct xs = r by unfold mayPfB; rw [decide_eq_true (show 0 ≤ ct by omega), decide_eq_true (show ct ≤ 1073741824 by omega), decide_eq_true (show xs.length ≤ 2 by omega), hr]; rfl]
  have HF := Lib.hid hr
  clear hr hn c1 c2
  have hg0 := heap_push w #[.int .i64 ct, .slice a n cap] 32
  have hbA : Below w.heap.size w (w.alloc (.cells #[.int .i64 ct, .slice a n cap] 32)) := Below.alloc (Below.refl _ _) (Nat.le_refl _) _
  go_enter Try.func73, Try.ntmps73
  go_upto_region 1 with fail
  refine wp_nameE _ (fun W1 hX => ?_)
  have hg : W1.heap[w.heap.size]? = some (.cells #[.int .i64 ct, .slice a n cap] 32 (0, 0)) := by rw [hX]; exact hg0
  have hbel : Below w.heap.size w W1 := by rw [hX]; exact hbA
  clear hX hg0 hbA
  have hgl : w.heap.size < W1.heap.size := (Array.getElem?_eq_some_iff.1 hg).1
  have q0 := cell_heap hg 0; have q1 := cell_heap hg 1
  go_upto_region 4 with fail
  go_loopw [3] (fun i wr => ∃ k : Nat, k ≤ n ∧ i = .int .i64 k ∧ Hid ((xs.take k).all (mayLeafB ct) = true) ∧ Below W1.heap.size W1 wr) (fun i _ => n - (intOf i).toNat)
  case atStart => exact ⟨0, Nat.zero_le _, rfl, Lib.hid (by simp), Below.refl _ _⟩
  case round =>
    obtain ⟨k, hk, rfl, HT, hb⟩ := hrel
    have hbel := hbel.trans (hb.mono hbel.size)
    have hg := cells_of hg hb hgl
    have hgl := Nat.lt_of_lt_of_le hgl hb.size
    have q0 := cell_heap hg 0; have q1 := cell_heap hg 1
    by_cases hlt : k < n
    · have d1 : decide ((k : Int) < (n : Int)) = true := decide_eq_true (by omega)
      have d1n : decide (k < n) = true := decide_eq_true hlt
      have hkl : k < xs.length := by rw [HN.out]; exact hlt
      obtain ⟨b1, o1, rfl, hb1, hg1⟩ := lv_range (h.row.below hbel) hkl
      have ok1 := (h.each _ (List.getElem_mem hkl)).below hbel
      have hstep := all_takeL (p := mayLeafB ct) hkl
      have hbad := all_badL (p := mayLeafB ct) hkl
      obtain ⟨⟨key, val, idx, pa, pn, pc, path⟩, hp⟩ : ∃ p, xs[k] = p := ⟨_, rfl⟩
      rw [hp] at hg1 ok1 hstep hbad
      have hg1 : wr.rangeAt b1 (o1 + k * 4) [.string key, .string val, .int .i64 idx, .slice pa pn pc] := hg1
      have hpl : path.length = pn := ok1.len
      rw [HT.out] at hstep
      have n0 : (0 : Int) ≤ (k : Int) := by omega
      have n1' : (k : Int) < (n : Int) := by omega
      have n2' : ((k : Nat) : Int).toNat = k := by omega
      clear hp ok1
      go_upto_region 7 with (first | (refine wpList_load_mid rfl 111 (.tmp 29) rfl b1 _ rfl _ _ hg1 Try.underlying111 rfl (by kernel_rfl) ?_) | (refine wpList_storeRowTo rfl (.tmp 4) (.tmp 30) 111 rfl (by kernel_rfl) rfl (by rfl) (heap_push _ _ _) rfl (leaf_one _ _ _ _ _ _) ?_))
      refine wp_nameE _ (fun W5 hX => ?_)
      have hb5 : Below wr.heap.size wr W5 := by rw [hX]; first | exact below_setRow (Below.alloc (Below.refl _ _) (Nat.le_refl _) _) (Nat.le_refl _) _ | exact Below.alloc (Below.refl _ _) (Nat.le_refl _) _
      have hx : W5.heap[wr.heap.size]? = some (.cells #[.string key, .string val, .int .i64 idx, .slice pa pn pc] 111 (0, 0)) := by rw [hX]; first | exact setRow_heap _ _ _ _ _ _ (heap_push _ _ _) | exact heap_push _ _ _
      clear hX hg1
      have hxl : wr.heap.size < W5.heap.size := (Array.getElem?_eq_some_iff.1 hx).1
      have hb := hb.trans (hb5.mono hb.size)
      have hg := cells_of hg hb5 hgl
      have hgl := Nat.lt_of_lt_of_le hgl hb5.size
      have hbel := hbel.trans (hb5.mono hbel.size)
      have q0 := cell_heap hg 0; have q1 := cell_heap hg 1; have x0 := cell_heap hx 0; have x1 := cell_heap hx 1; have x2 := cell_heap hx 2; have x3 := cell_heap hx 3
      have CD := fun W => refDeep_any ct idx W
      obtain ⟨D, hD⟩ : ∃ d, deepI ct idx = d := ⟨_, rfl⟩
      have hml : mayLeafB ct ⟨key, val, idx, pa, pn, pc, path⟩ = (decide (0 < key.size) && decide (key.size ≤ 160) && decide (0 < val.size) && decide (val.size ≤ 64) && decide (0 ≤ idx) && decide (idx < ct) && decide ((pn : Int) = D)) := by unfold mayLeafB fitsB; simp only [hD, hpl]
      simp only [hD] at CD
      rw [hml] at hstep hbad
      have HSTEP := Lib.hid hstep
      have HBAD := Lib.hid hbad
      clear hml hD hpl hstep hbad
      have hcb := (beyond_cells (W := W5)).1
      have hfz := (beyond_cells (W := W5)).2
      by_cases c09 : key.size < 1
      · have f0n : decide (key.size < 1) = true := decide_eq_true c09
        have f0 : decide ((key.size : Int) < 1) = true := decide_eq_true (by omega)
        obtain rfl : false = r := by rw [← HF.out, HBAD.out (by rw [decide_eq_false (show ¬ 0 < key.size by omega)]; simp)]
        clear HSTEP HBAD c09
        refine wp_region_below (by kernel_rfl) (by kernel_rfl) ?_
        repeat (go_big_quiet_step (first | (go_at_call 110; exact quiet_below (CD _))))
        intro w9 hw9
        have hb9 := beyond_below hw9
        go_wp2
        go_ret
        exact ⟨rfl, hbel.trans (hb9.mono hbel.size)⟩
      have f0n : decide (key.size < 1) = false := decide_eq_false c09
      have f0 : decide ((key.size : Int) < 1) = false := decide_eq_false (by omega)
      by_cases c19 : 160 < key.size
      · have f1n : decide (160 < key.size) = true := decide_eq_true c19
        have f1 : decide (160 < (key.size : Int)) = true := decide_eq_true (by omega)
        obtain rfl : false = r := by rw [← HF.out, HBAD.out (by rw [decide_eq_false (show ¬ key.size ≤ 160 by omega)]; simp)]
        clear HSTEP HBAD c09 c19
        refine wp_region_below (by kernel_rfl) (by kernel_rfl) ?_
        repeat (go_big_quiet_step (first | (go_at_call 110; exact quiet_below (CD _))))
        intro w9 hw9
        have hb9 := beyond_below hw9
        go_wp2
        go_ret
        exact ⟨rfl, hbel.trans (hb9.mono hbel.size)⟩
      have f1n : decide (160 < key.size) = false := decide_eq_false c19
      have f1 : decide (160 < (key.size : Int)) = false := decide_eq_false (by omega)
      by_cases c29 : val.size < 1
      · have f2n : decide (val.size < 1) = true := decide_eq_true c29
        have f2 : decide ((val.size : Int) < 1) = true := decide_eq_true (by omega)
        obtain rfl : false = r := by rw [← HF.out, HBAD.out (by rw [decide_eq_false (show ¬ 0 < val.size by omega)]; simp)]
        clear HSTEP HBAD c09 c19 c29
        refine wp_region_below (by kernel_rfl) (by kernel_rfl) ?_
        repeat (go_big_quiet_step (first | (go_at_call 110; exact quiet_below (CD _))))
        intro w9 hw9
        have hb9 := beyond_below hw9
        go_wp2
        go_ret
        exact ⟨rfl, hbel.trans (hb9.mono hbel.size)⟩
      have f2n : decide (val.size < 1) = false := decide_eq_false c29
      have f2 : decide ((val.size : Int) < 1) = false := decide_eq_false (by omega)
      by_cases c39 : 64 < val.size
      · have f3n : decide (64 < val.size) = true := decide_eq_true c39
        have f3 : decide (64 < (val.size : Int)) = true := decide_eq_true (by omega)
        obtain rfl : false = r := by rw [← HF.out, HBAD.out (by rw [decide_eq_false (show ¬ val.size ≤ 64 by omega)]; simp)]
        clear HSTEP HBAD c09 c19 c29 c39
        refine wp_region_below (by kernel_rfl) (by kernel_rfl) ?_
        repeat (go_big_quiet_step (first | (go_at_call 110; exact quiet_below (CD _))))
        intro w9 hw9
        have hb9 := beyond_below hw9
        go_wp2
        go_ret
        exact ⟨rfl, hbel.trans (hb9.mono hbel.size)⟩
      have f3n : decide (64 < val.size) = false := decide_eq_false c39
      have f3 : decide (64 < (val.size : Int)) = false := decide_eq_false (by omega)
      by_cases c49 : idx < 0
      · have f4n : decide (idx < 0) = true := decide_eq_true c49
        obtain rfl : false = r := by rw [← HF.out, HBAD.out (by rw [decide_eq_false (show ¬ 0 ≤ idx by omega)]; simp)]
        clear HSTEP HBAD c09 c19 c29 c39 c49
        refine wp_region_below (by kernel_rfl) (by kernel_rfl) ?_
        repeat (go_big_quiet_step (first | (go_at_call 110; exact quiet_below (CD _))))
        intro w9 hw9
        have hb9 := beyond_below hw9
        go_wp2
        go_ret
        exact ⟨rfl, hbel.trans (hb9.mono hbel.size)⟩
      have f4n : decide (idx < 0) = false := decide_eq_false c49
      by_cases c59 : ct ≤ idx
      · have f5n : decide (ct ≤ idx) = true := decide_eq_true c59
        obtain rfl : false = r := by rw [← HF.out, HBAD.out (by rw [decide_eq_false (show ¬ idx < ct by omega)]; simp)]
        clear HSTEP HBAD c09 c19 c29 c39 c49 c59
        refine wp_region_below (by kernel_rfl) (by kernel_rfl) ?_
        repeat (go_big_quiet_step (first | (go_at_call 110; exact quiet_below (CD _))))
        intro w9 hw9
        have hb9 := beyond_below hw9
        go_wp2
        go_ret
        exact ⟨rfl, hbel.trans (hb9.mono hbel.size)⟩
      have f5n : decide (ct ≤ idx) = false := decide_eq_false c59
      by_cases e3 : (pn : Int) = D
      · have f9 : ((pn : Int) != D) = false := by rw [e3]; simp
        have hs9 : (xs.take (k + 1)).all (mayLeafB ct) = true := by rw [HSTEP.out, decide_eq_true (show 0 < key.size by omega), decide_eq_true (show key.size ≤ 160 by omega), decide_eq_true (show 0 < val.size by omega), decide_eq_true (show val.size ≤ 64 by omega), decide_eq_true (show 0 ≤ idx by omega), decide_eq_true (show idx < ct by omega), decide_eq_true e3]; rfl
        have HS := Lib.hid hs9
        clear HSTEP HBAD hs9 e3 c09 c19 c29 c39 c49 c59
        refine wp_region_below (by kernel_rfl) (by kernel_rfl) ?_
        repeat (go_big_quiet_step (first | (go_at_call 110; exact quiet_below (CD _))))
        intro w9 hw9
        have hb9 := beyond_below hw9
        go_wp2
        go_roundw
        case rel => exact ⟨k + 1, by omega, by go_num, HS, hb.trans (hb9.mono hb.size)⟩
        case measure => (simp [intOf]) <;> omega
      · have f9 : ((pn : Int) != D) = true := by rw [bne_iff_ne]; exact e3
        obtain rfl : false = r := by rw [← HF.out, HBAD.out (by rw [decide_eq_false e3]; simp)]
        clear HSTEP HBAD e3 c09 c19 c29 c39 c49 c59
        refine wp_region_below (by kernel_rfl) (by kernel_rfl) ?_
        repeat (go_big_quiet_step (first | (go_at_call 110; exact quiet_below (CD _))))
        intro w9 hw9
        have hb9 := beyond_below hw9
        go_wp2
        go_ret
        exact ⟨rfl, hbel.trans (hb9.mono hbel.size)⟩
    · have d9 : decide ((k : Int) < (n : Int)) = false := decide_eq_false (by omega)
      have d9n : decide (k < n) = false := decide_eq_false hlt
      obtain rfl : true = r := by rw [← HF.out, ← HT.out, List.take_of_length_le (by rw [HN.out]; omega)]
      go_wp2
      go_ret
      exact ⟨rfl, hbel⟩
end Go.Proofs.Ythipnkbfdkmhaaa
namespace Go.Proofs.Ythipnkbfdkmhaaa
open Go.RowKit
attribute [local go_sem] strV
set_option linter.unusedVariables false
theorem hdL_row (h t : Int) (q : H32) : (hdL h t q).toArray[0]? = some (.int .i64 h) ∧ (hdL h t q).toArray[1]? = some (.int .i64 t) := ⟨rfl, rfl⟩
def hdMay (h t : Int) : Bool := heightB h && decide (0 ≤ t) && decide (t ≤ 1099511627776)
set_option maxRecDepth 100000 in
set_option maxHeartbeats 4000000 in
theorem refMayHd_any (h t : Int) (q : H32) (w : World) :
    Calls Try.prog 71 #[.agg (hdL h t q).toArray] w fun e w' => e = .returned (.bool (hdMay h t)) ∧ Below w.heap.size w w' := by
  obtain ⟨k0, e0⟩ : ∃ b, decide (1 ≤ h) = b := ⟨_, rfl⟩
  obtain ⟨k1, e1⟩ : ∃ b, decide (h ≤ 1099511627776) = b := ⟨_, rfl⟩
  obtain ⟨k2, e2⟩ : ∃ b, decide (0 ≤ t) = b := ⟨_, rfl⟩
  obtain ⟨k3, e3⟩ : ∃ b, decide (t ≤ 1099511627776) = b := ⟨_, rfl⟩
  obtain ⟨r, hr⟩ : ∃ r, hdMay h t = r := ⟨_, rfl⟩
  have HR : Hid ((k0 && k1 && k2 && k3) = r) := Lib.hid (by rw [← hr]; unfold hdMay heightB; rw [e0, e1, e2, e3])
  rw [hr]
  clear hr
  have hg0 := heap_push w (hdL h t q).toArray 25
  have z := hdL_row h t q
  generalize (hdL h t q).toArray = X at *
  go_enter Try.func71, Try.ntmps71
  go_upto_region 1 with fail
  refine wp_nameE _ (fun W1 hX => ?_)
  have hg : W1.heap[w.heap.size]? = some (.cells X 25 (0, 0)) := by rw [hX]; exact hg0
  have hbel : Below w.heap.size w W1 := by rw [hX]; exact Below.alloc (Below.refl _ _) (Nat.le_refl _) _
  have q0 := (cell_heap hg 0).trans z.1
  have q1 := (cell_heap hg 1).trans z.2
  clear hX hg0 hg z
  cases k0
  · obtain rfl : false = r := by rw [← HR.out]; simp
    go_wp2
    go_ret
    exact ⟨by first | rfl | simp, hbel⟩
  cases k1
  · obtain rfl : false = r := by rw [← HR.out]; simp
    go_wp2
    go_ret
    exact ⟨by first | rfl | simp, hbel⟩
  cases k2
  · obtain rfl : false = r := by rw [← HR.out]; simp
    go_wp2
    go_ret
    exact ⟨by first | rfl | simp, hbel⟩
  cases k3
  · obtain rfl : false = r := by rw [← HR.out]; simp
    go_wp2
    go_ret
    exact ⟨by first | rfl | simp, hbel⟩
  obtain rfl : true = r := by rw [← HR.out]; rfl
  go_wp2
  go_ret
  exact ⟨by first | rfl | simp, hbel⟩
theorem ack_empty (s : ByteArray) : (s.toList == []) = decide (s.size < 1) := by
  by_cases h : s.size < 1
  · obtain rfl : s = ⟨#[]⟩ := by
      apply ByteArray.ext
      apply Array.eq_empty_of_size_eq_zero
      have : s.data.size = s.size := rfl
      omega
    decide +kernel
  · rw [(str_nonempty (show 0 < s.size by omega)).1, decide_eq_false h]
set_option maxRecDepth 100000 in
set_option maxHeartbeats 4000000 in
theorem refMayMsg_any (m : MsgV) (w : World) (hm : m.ok w) :
    Calls Try.prog 22 #[.agg m.row] w fun e w' => e = .returned (.bool (mayMsgB m)) ∧ Below w.heap.size w w' := by
  obtain ⟨k0, e0⟩ : ∃ b, decide (m.kd < 1) = b := ⟨_, rfl⟩
  obtain ⟨k1, e1⟩ : ∃ b, decide (5 < m.kd) = b := ⟨_, rfl⟩
  obtain ⟨k2, e2⟩ : ∃ b, msgB m m.plain = b := ⟨_, rfl⟩
  obtain ⟨r, hr0⟩ : ∃ r, restB m = r := ⟨_, rfl⟩
  have hS : mayMsgB m = (!k0 && !k1 && k2 && r) := by unfold mayMsgB; simp only [e0, e1, e2, hr0]
  rw [hS]
  have HR0 := Lib.hid hr0
  clear hS hr0
  have CM := fun W (hb : Below w.heap.size w W) => refSameMsg_any m m.plain W (hm.below hb) (MsgV.plain_ok (hm.below hb))
  simp only [e2] at CM
  clear e2
  go_enter Try.func22, Try.ntmps22
  go_upto_region 1 with fail
  refine wp_nameE _ (fun W1 hX => ?_)
  have hg : W1.heap[w.heap.size]? = some (.cells m.row 34 (0, 0)) := by rw [hX]; exact heap_push _ _ _
  have hbel : Below w.heap.size w W1 := by rw [hX]; exact Below.alloc (Below.refl _ _) (Nat.le_refl _) _
  clear hX
  have hgl : w.heap.size < W1.heap.size := (Array.getElem?_eq_some_iff.1 hg).1
  obtain ⟨q0, q1, q2, q3, q4, q5, q6, q7, q8, q9, q10, q11, q12, q13, q14, q15, q16, q17⟩ := msg_cells hg
  have CPn : ∀ n : Beyond W1, Calls Try.prog 25 #[.agg m.row] n.x fun e w' => e = .returned (.agg m.plain.row) ∧ ∃ m : Beyond W1, w' = m.x := fun n => quiet_below (refPlain_any m n.x)
  have CMn : ∀ n : Beyond W1, Calls Try.prog 23 #[.agg m.row, .agg m.plain.row] n.x fun e w' => e = .returned (.bool k2) ∧ ∃ m : Beyond W1, w' = m.x := fun n => quiet_below (CM n.x (hbel.trans (n.h.mono hbel.size)))
  have lm := fun n => load_msg hg hgl n
  have z0 : ∀ n : Beyond W1, n.x.cell? ⟨w.heap.size, 0, none⟩ = some (.int .i64 m.kd) := fun n => (msg_cells (cells_of hg n.h hgl)).1
  cases k0
  case true =>
    refine wp_region_below (by kernel_rfl) (by kernel_rfl) ?_
    repeat (first | (go_big_quiet_want; refine quiet_load (v := .agg m.row) 34 (.tmp 1) rfl (by rfl) (by rintro _ ⟨n, rfl⟩; exact lm n) ?_; simp only [Act.put, List.setIfInBounds_toArray, List.set_cons_succ, List.set_cons_zero]; go_big_quiet_on) | go_big_quiet_step (first | (go_at_call 25; with_reducible exact CPn _) | (go_at_call 23; with_reducible exact CMn _)))
    intro w9 hw9
    have hb := beyond_below hw9
    have hg := cells_of hg hb hgl
    have hgl := Nat.lt_of_lt_of_le hgl hb.size
    have hbel := hbel.trans (hb.mono hbel.size)
    obtain ⟨q0, q1, q2, q3, q4, q5, q6, q7, q8, q9, q10, q11, q12, q13, q14, q15, q16, q17⟩ := msg_cells hg
    clear hb
    clear CPn CMn lm CM hw9 z0
    go_wp2
    go_ret
    exact ⟨by first | rfl | simp, hbel⟩
  cases k1
  case true =>
    refine wp_region_below (by kernel_rfl) (by kernel_rfl) ?_
    repeat (first | (go_big_quiet_want; refine quiet_load (v := .agg m.row) 34 (.tmp 1) rfl (by rfl) (by rintro _ ⟨n, rfl⟩; exact lm n) ?_; simp only [Act.put, List.setIfInBounds_toArray, List.set_cons_succ, List.set_cons_zero]; go_big_quiet_on) | go_big_quiet_step (first | (go_at_call 25; with_reducible exact CPn _) | (go_at_call 23; with_reducible exact CMn _)))
    intro w9 hw9
    have hb := beyond_below hw9
    have hg := cells_of hg hb hgl
    have hgl := Nat.lt_of_lt_of_le hgl hb.size
    have hbel := hbel.trans (hb.mono hbel.size)
    obtain ⟨q0, q1, q2, q3, q4, q5, q6, q7, q8, q9, q10, q11, q12, q13, q14, q15, q16, q17⟩ := msg_cells hg
    clear hb
    clear CPn CMn lm CM hw9 z0
    go_wp2
    go_ret
    exact ⟨by first | rfl | simp, hbel⟩
  cases k2
  case false =>
    refine wp_region_below (by kernel_rfl) (by kernel_rfl) ?_
    repeat (first | (go_big_quiet_want; refine quiet_load (v := .agg m.row) 34 (.tmp 1) rfl (by rfl) (by rintro _ ⟨n, rfl⟩; exact lm n) ?_; simp only [Act.put, List.setIfInBounds_toArray, List.set_cons_succ, List.set_cons_zero]; go_big_quiet_on) | go_big_quiet_step (first | (go_at_call 25; with_reducible exact CPn _) | (go_at_call 23; with_reducible exact CMn _)))
    intro w9 hw9
    have hb := beyond_below hw9
    have hg := cells_of hg hb hgl
    have hgl := Nat.lt_of_lt_of_le hgl hb.size
    have hbel := hbel.trans (hb.mono hbel.size)
    obtain ⟨q0, q1, q2, q3, q4, q5, q6, q7, q8, q9, q10, q11, q12, q13, q14, q15, q16, q17⟩ := msg_cells hg
    clear hb
    clear CPn CMn lm CM hw9 z0
    go_wp2
    go_ret
    exact ⟨by first | rfl | simp, hbel⟩
  refine wp_region_below (by kernel_rfl) (by kernel_rfl) ?_
  repeat (first | (go_big_quiet_want; refine quiet_load (v := .agg m.row) 34 (.tmp 1) rfl (by rfl) (by rintro _ ⟨n, rfl⟩; exact lm n) ?_; simp only [Act.put, List.setIfInBounds_toArray, List.set_cons_succ, List.set_cons_zero]; go_big_quiet_on) | go_big_quiet_step (first | (go_at_call 25; with_reducible exact CPn _) | (go_at_call 23; with_reducible exact CMn _)))
  intro w9 hw9
  have hb := beyond_below hw9
  have hg := cells_of hg hb hgl
  have hgl := Nat.lt_of_lt_of_le hgl hb.size
  have hbel := hbel.trans (hb.mono hbel.size)
  obtain ⟨q0, q1, q2, q3, q4, q5, q6, q7, q8, q9, q10, q11, q12, q13, q14, q15, q16, q17⟩ := msg_cells hg
  clear hb
  clear CPn CMn lm CM hw9 z0
  go_upto_region 3 with fail
  by_cases h1 : m.kd = 1
  · have d1 : (m.kd == 1) = true := by rw [h1]; rfl
    have CH := fun W => refMayHd_any m.hh m.ht m.rt W
    have hd9 : hdMay m.hh m.ht = r := by rw [← HR0.out]; unfold restB; rw [if_pos h1]; rfl
    simp only [hd9] at CH
    have hdg := msg_header hg
    clear hd9 h1 HR0
    go_wp2_with (first | (refine wpList_load_mid rfl 25 (.tmp 21) rfl w.heap.size 1 rfl (hdL m.hh m.ht m.rt) _ hdg Try.underlying25 rfl (hd_info _ _ _) ?_) | (go_at_call 71; refine (CH _).mono ?_; rintro e w2 ⟨rfl, hb⟩; have hbel := hbel.trans (hb.mono hbel.size)))
    go_ret
    exact ⟨by first | rfl | simp, hbel⟩
  have d1 : (m.kd == 1) = false := beq_eq_false_iff_ne.2 h1
  obtain ⟨k3, e3⟩ : ∃ b, (m.kd == 3) = b := ⟨_, rfl⟩
  obtain ⟨k4, e4⟩ : ∃ b, decide (m.ack.size < 1) = b := ⟨_, rfl⟩
  obtain ⟨k5, e5⟩ : ∃ b, decide (32 < (m.ack.size : Int)) = b := ⟨_, rfl⟩
  obtain ⟨k6, e6⟩ : ∃ b, mayK m.sp m.sc m.dp m.dc m.sq m.da m.th m.ta = b := ⟨_, rfl⟩
  obtain ⟨k7, e7⟩ : ∃ b, decide (1 ≤ m.he) = b := ⟨_, rfl⟩
  obtain ⟨k12, e12⟩ : ∃ b, decide (m.he ≤ 1099511627776) = b := ⟨_, rfl⟩
  obtain ⟨k8, e8⟩ : ∃ b, decide (0 ≤ m.nx) = b := ⟨_, rfl⟩
  obtain ⟨k9, e9⟩ : ∃ b, decide (m.nx ≤ 1099511627777) = b := ⟨_, rfl⟩
  obtain ⟨k10, e10⟩ : ∃ b, mayPfB m.pct m.pxs = b := ⟨_, rfl⟩
  obtain ⟨k11, e11⟩ : ∃ b, mayPfB m.cct m.cxs = b := ⟨_, rfl⟩
  have e4i : decide ((m.ack.size : Int) < 1) = k4 := by rw [← e4]; by_cases h : m.ack.size < 1 <;> simp [h] <;> omega
  have e5n : decide (32 < m.ack.size) = k5 := by rw [← e5]; by_cases h : 32 < m.ack.size <;> simp [h] <;> omega
  have CK := fun W => refMayPk_any m.sp m.sc m.dp m.dc m.sq m.da m.th m.ta W hm.spM hm.dpM
  have CP := fun W (hb : Below w.heap.size w W) => refMayPf_any m.pct m.pa m.pn m.pc m.pxs W (hm.p.below hb) hm.plen (Nat.le_trans hm.pcap hm.pcM)
  have CC := fun W (hb : Below w.heap.size w W) => refMayPf_any m.cct m.ca m.cn m.cc m.cxs W (hm.c.below hb) hm.clen (Nat.le_trans hm.ccap hm.ccM)
  simp only [e6] at CK
  simp only [e10] at CP
  simp only [e11] at CC
  have HR : Hid ((!(k3 && (k4 || k5)) && k6 && (k7 && k12) && k8 && k9 && k10 && k11) = r) := Lib.hid (by rw [← HR0.out]; unfold restB heightB; rw [if_neg h1]; simp only [ack_empty, e3, e4, e5, e6, e7, e8, e9, e10, e11, e12])
  clear HR0 e6 e10 e11 h1 e0 e1
  go_upto_region 5 with fail
  cases k3
  case true =>
    cases k4
    case true =>
      obtain rfl : false = r := by rw [← HR.out]; simp
      go_wp2_with (first | (go_at_call 72; first | ((with_reducible refine (CK _).mono ?_); rintro e w2 ⟨rfl, hb⟩; have hg := cells_of hg hb hgl; have hgl := Nat.lt_of_lt_of_le hgl hb.size; have hbel := hbel.trans (hb.mono hbel.size); obtain ⟨q0, q1, q2, q3, q4, q5, q6, q7, q8, q9, q10, q11, q12, q13, q14, q15, q16, q17⟩ := msg_cells hg; clear hb)) | (go_at_call 73; first | ((with_reducible refine (CP _ hbel).mono ?_); rintro e w2 ⟨rfl, hb⟩; have hg := cells_of hg hb hgl; have hgl := Nat.lt_of_lt_of_le hgl hb.size; have hbel := hbel.trans (hb.mono hbel.size); obtain ⟨q0, q1, q2, q3, q4, q5, q6, q7, q8, q9, q10, q11, q12, q13, q14, q15, q16, q17⟩ := msg_cells hg; clear hb) | ((with_reducible refine (CC _ hbel).mono ?_); rintro e w2 ⟨rfl, hb⟩; have hg := cells_of hg hb hgl; have hgl := Nat.lt_of_lt_of_le hgl hb.size; have hbel := hbel.trans (hb.mono hbel.size); obtain ⟨q0, q1, q2, q3, q4, q5, q6, q7, q8, q9, q10, q11, q12, q13, q14, q15, q16, q17⟩ := msg_cells hg; clear hb)))
      go_ret
      exact ⟨by first | rfl | simp, hbel⟩
    cases k5
    case true =>
      obtain rfl : false = r := by rw [← HR.out]; simp
      go_wp2_with (first | (go_at_call 72; first | ((with_reducible refine (CK _).mono ?_); rintro e w2 ⟨rfl, hb⟩; have hg := cells_of hg hb hgl; have hgl := Nat.lt_of_lt_of_le hgl hb.size; have hbel := hbel.trans (hb.mono hbel.size); obtain ⟨q0, q1, q2, q3, q4, q5, q6, q7, q8, q9, q10, q11, q12, q13, q14, q15, q16, q17⟩ := msg_cells hg; clear hb)) | (go_at_call 73; first | ((with_reducible refine (CP _ hbel).mono ?_); rintro e w2 ⟨rfl, hb⟩; have hg := cells_of hg hb hgl; have hgl := Nat.lt_of_lt_of_le hgl hb.size; have hbel := hbel.trans (hb.mono hbel.size); obtain ⟨q0, q1, q2, q3, q4, q5, q6, q7, q8, q9, q10, q11, q12, q13, q14, q15, q16, q17⟩ := msg_cells hg; clear hb) | ((with_reducible refine (CC _ hbel).mono ?_); rintro e w2 ⟨rfl, hb⟩; have hg := cells_of hg hb hgl; have hgl := Nat.lt_of_lt_of_le hgl hb.size; have hbel := hbel.trans (hb.mono hbel.size); obtain ⟨q0, q1, q2, q3, q4, q5, q6, q7, q8, q9, q10, q11, q12, q13, q14, q15, q16, q17⟩ := msg_cells hg; clear hb)))
      go_ret
      exact ⟨by first | rfl | simp, hbel⟩
    cases k6
    · obtain rfl : false = r := by rw [← HR.out]; simp
      go_wp2_with (first | (go_at_call 72; first | ((with_reducible refine (CK _).mono ?_); rintro e w2 ⟨rfl, hb⟩; have hg := cells_of hg hb hgl; have hgl := Nat.lt_of_lt_of_le hgl hb.size; have hbel := hbel.trans (hb.mono hbel.size); obtain ⟨q0, q1, q2, q3, q4, q5, q6, q7, q8, q9, q10, q11, q12, q13, q14, q15, q16, q17⟩ := msg_cells hg; clear hb)) | (go_at_call 73; first | ((with_reducible refine (CP _ hbel).mono ?_); rintro e w2 ⟨rfl, hb⟩; have hg := cells_of hg hb hgl; have hgl := Nat.lt_of_lt_of_le hgl hb.size; have hbel := hbel.trans (hb.mono hbel.size); obtain ⟨q0, q1, q2, q3, q4, q5, q6, q7, q8, q9, q10, q11, q12, q13, q14, q15, q16, q17⟩ := msg_cells hg; clear hb) | ((with_reducible refine (CC _ hbel).mono ?_); rintro e w2 ⟨rfl, hb⟩; have hg := cells_of hg hb hgl; have hgl := Nat.lt_of_lt_of_le hgl hb.size; have hbel := hbel.trans (hb.mono hbel.size); obtain ⟨q0, q1, q2, q3, q4, q5, q6, q7, q8, q9, q10, q11, q12, q13, q14, q15, q16, q17⟩ := msg_cells hg; clear hb)))
      go_ret
      exact ⟨by first | rfl | simp, hbel⟩
    cases k8
    · obtain rfl : false = r := by rw [← HR.out]; simp
      go_wp2_with (first | (go_at_call 72; first | ((with_reducible refine (CK _).mono ?_); rintro e w2 ⟨rfl, hb⟩; have hg := cells_of hg hb hgl; have hgl := Nat.lt_of_lt_of_le hgl hb.size; have hbel := hbel.trans (hb.mono hbel.size); obtain ⟨q0, q1, q2, q3, q4, q5, q6, q7, q8, q9, q10, q11, q12, q13, q14, q15, q16, q17⟩ := msg_cells hg; clear hb)) | (go_at_call 73; first | ((with_reducible refine (CP _ hbel).mono ?_); rintro e w2 ⟨rfl, hb⟩; have hg := cells_of hg hb hgl; have hgl := Nat.lt_of_lt_of_le hgl hb.size; have hbel := hbel.trans (hb.mono hbel.size); obtain ⟨q0, q1, q2, q3, q4, q5, q6, q7, q8, q9, q10, q11, q12, q13, q14, q15, q16, q17⟩ := msg_cells hg; clear hb) | ((with_reducible refine (CC _ hbel).mono ?_); rintro e w2 ⟨rfl, hb⟩; have hg := cells_of hg hb hgl; have hgl := Nat.lt_of_lt_of_le hgl hb.size; have hbel := hbel.trans (hb.mono hbel.size); obtain ⟨q0, q1, q2, q3, q4, q5, q6, q7, q8, q9, q10, q11, q12, q13, q14, q15, q16, q17⟩ := msg_cells hg; clear hb)))
      go_ret
      exact ⟨by first | rfl | simp, hbel⟩
    cases k9
    · obtain rfl : false = r := by rw [← HR.out]; simp
      go_wp2_with (first | (go_at_call 72; first | ((with_reducible refine (CK _).mono ?_); rintro e w2 ⟨rfl, hb⟩; have hg := cells_of hg hb hgl; have hgl := Nat.lt_of_lt_of_le hgl hb.size; have hbel := hbel.trans (hb.mono hbel.size); obtain ⟨q0, q1, q2, q3, q4, q5, q6, q7, q8, q9, q10, q11, q12, q13, q14, q15, q16, q17⟩ := msg_cells hg; clear hb)) | (go_at_call 73; first | ((with_reducible refine (CP _ hbel).mono ?_); rintro e w2 ⟨rfl, hb⟩; have hg := cells_of hg hb hgl; have hgl := Nat.lt_of_lt_of_le hgl hb.size; have hbel := hbel.trans (hb.mono hbel.size); obtain ⟨q0, q1, q2, q3, q4, q5, q6, q7, q8, q9, q10, q11, q12, q13, q14, q15, q16, q17⟩ := msg_cells hg; clear hb) | ((with_reducible refine (CC _ hbel).mono ?_); rintro e w2 ⟨rfl, hb⟩; have hg := cells_of hg hb hgl; have hgl := Nat.lt_of_lt_of_le hgl hb.size; have hbel := hbel.trans (hb.mono hbel.size); obtain ⟨q0, q1, q2, q3, q4, q5, q6, q7, q8, q9, q10, q11, q12, q13, q14, q15, q16, q17⟩ := msg_cells hg; clear hb)))
      go_ret
      exact ⟨by first | rfl | simp, hbel⟩
    cases k7
    · obtain rfl : false = r := by rw [← HR.out]; simp
      go_wp2_with (first | (go_at_call 72; first | ((with_reducible refine (CK _).mono ?_); rintro e w2 ⟨rfl, hb⟩; have hg := cells_of hg hb hgl; have hgl := Nat.lt_of_lt_of_le hgl hb.size; have hbel := hbel.trans (hb.mono hbel.size); obtain ⟨q0, q1, q2, q3, q4, q5, q6, q7, q8, q9, q10, q11, q12, q13, q14, q15, q16, q17⟩ := msg_cells hg; clear hb)) | (go_at_call 73; first | ((with_reducible refine (CP _ hbel).mono ?_); rintro e w2 ⟨rfl, hb⟩; have hg := cells_of hg hb hgl; have hgl := Nat.lt_of_lt_of_le hgl hb.size; have hbel := hbel.trans (hb.mono hbel.size); obtain ⟨q0, q1, q2, q3, q4, q5, q6, q7, q8, q9, q10, q11, q12, q13, q14, q15, q16, q17⟩ := msg_cells hg; clear hb) | ((with_reducible refine (CC _ hbel).mono ?_); rintro e w2 ⟨rfl, hb⟩; have hg := cells_of hg hb hgl; have hgl := Nat.lt_of_lt_of_le hgl hb.size; have hbel := hbel.trans (hb.mono hbel.size); obtain ⟨q0, q1, q2, q3, q4, q5, q6, q7, q8, q9, q10, q11, q12, q13, q14, q15, q16, q17⟩ := msg_cells hg; clear hb)))
      go_ret
      exact ⟨by first | rfl | simp, hbel⟩
    cases k12
    · obtain rfl : false = r := by rw [← HR.out]; simp
      go_wp2_with (first | (go_at_call 72; first | ((with_reducible refine (CK _).mono ?_); rintro e w2 ⟨rfl, hb⟩; have hg := cells_of hg hb hgl; have hgl := Nat.lt_of_lt_of_le hgl hb.size; have hbel := hbel.trans (hb.mono hbel.size); obtain ⟨q0, q1, q2, q3, q4, q5, q6, q7, q8, q9, q10, q11, q12, q13, q14, q15, q16, q17⟩ := msg_cells hg; clear hb)) | (go_at_call 73; first | ((with_reducible refine (CP _ hbel).mono ?_); rintro e w2 ⟨rfl, hb⟩; have hg := cells_of hg hb hgl; have hgl := Nat.lt_of_lt_of_le hgl hb.size; have hbel := hbel.trans (hb.mono hbel.size); obtain ⟨q0, q1, q2, q3, q4, q5, q6, q7, q8, q9, q10, q11, q12, q13, q14, q15, q16, q17⟩ := msg_cells hg; clear hb) | ((with_reducible refine (CC _ hbel).mono ?_); rintro e w2 ⟨rfl, hb⟩; have hg := cells_of hg hb hgl; have hgl := Nat.lt_of_lt_of_le hgl hb.size; have hbel := hbel.trans (hb.mono hbel.size); obtain ⟨q0, q1, q2, q3, q4, q5, q6, q7, q8, q9, q10, q11, q12, q13, q14, q15, q16, q17⟩ := msg_cells hg; clear hb)))
      go_ret
      exact ⟨by first | rfl | simp, hbel⟩
    cases k10
    · obtain rfl : false = r := by rw [← HR.out]; simp
      go_wp2_with (first | (go_at_call 72; first | ((with_reducible refine (CK _).mono ?_); rintro e w2 ⟨rfl, hb⟩; have hg := cells_of hg hb hgl; have hgl := Nat.lt_of_lt_of_le hgl hb.size; have hbel := hbel.trans (hb.mono hbel.size); obtain ⟨q0, q1, q2, q3, q4, q5, q6, q7, q8, q9, q10, q11, q12, q13, q14, q15, q16, q17⟩ := msg_cells hg; clear hb)) | (go_at_call 73; first | ((with_reducible refine (CP _ hbel).mono ?_); rintro e w2 ⟨rfl, hb⟩; have hg := cells_of hg hb hgl; have hgl := Nat.lt_of_lt_of_le hgl hb.size; have hbel := hbel.trans (hb.mono hbel.size); obtain ⟨q0, q1, q2, q3, q4, q5, q6, q7, q8, q9, q10, q11, q12, q13, q14, q15, q16, q17⟩ := msg_cells hg; clear hb) | ((with_reducible refine (CC _ hbel).mono ?_); rintro e w2 ⟨rfl, hb⟩; have hg := cells_of hg hb hgl; have hgl := Nat.lt_of_lt_of_le hgl hb.size; have hbel := hbel.trans (hb.mono hbel.size); obtain ⟨q0, q1, q2, q3, q4, q5, q6, q7, q8, q9, q10, q11, q12, q13, q14, q15, q16, q17⟩ := msg_cells hg; clear hb)))
      go_ret
      exact ⟨by first | rfl | simp, hbel⟩
    obtain rfl : k11 = r := by rw [← HR.out]; simp
    go_wp2_with (first | (go_at_call 72; first | ((with_reducible refine (CK _).mono ?_); rintro e w2 ⟨rfl, hb⟩; have hg := cells_of hg hb hgl; have hgl := Nat.lt_of_lt_of_le hgl hb.size; have hbel := hbel.trans (hb.mono hbel.size); obtain ⟨q0, q1, q2, q3, q4, q5, q6, q7, q8, q9, q10, q11, q12, q13, q14, q15, q16, q17⟩ := msg_cells hg; clear hb)) | (go_at_call 73; first | ((with_reducible refine (CP _ hbel).mono ?_); rintro e w2 ⟨rfl, hb⟩; have hg := cells_of hg hb hgl; have hgl := Nat.lt_of_lt_of_le hgl hb.size; have hbel := hbel.trans (hb.mono hbel.size); obtain ⟨q0, q1, q2, q3, q4, q5, q6, q7, q8, q9, q10, q11, q12, q13, q14, q15, q16, q17⟩ := msg_cells hg; clear hb) | ((with_reducible refine (CC _ hbel).mono ?_); rintro e w2 ⟨rfl, hb⟩; have hg := cells_of hg hb hgl; have hgl := Nat.lt_of_lt_of_le hgl hb.size; have hbel := hbel.trans (hb.mono hbel.size); obtain ⟨q0, q1, q2, q3, q4, q5, q6, q7, q8, q9, q10, q11, q12, q13, q14, q15, q16, q17⟩ := msg_cells hg; clear hb)))
    go_ret
    exact ⟨by first | rfl | simp, hbel⟩
  cases k6
  · obtain rfl : false = r := by rw [← HR.out]; simp
    go_wp2_with (first | (go_at_call 72; first | ((with_reducible refine (CK _).mono ?_); rintro e w2 ⟨rfl, hb⟩; have hg := cells_of hg hb hgl; have hgl := Nat.lt_of_lt_of_le hgl hb.size; have hbel := hbel.trans (hb.mono hbel.size); obtain ⟨q0, q1, q2, q3, q4, q5, q6, q7, q8, q9, q10, q11, q12, q13, q14, q15, q16, q17⟩ := msg_cells hg; clear hb)) | (go_at_call 73; first | ((with_reducible refine (CP _ hbel).mono ?_); rintro e w2 ⟨rfl, hb⟩; have hg := cells_of hg hb hgl; have hgl := Nat.lt_of_lt_of_le hgl hb.size; have hbel := hbel.trans (hb.mono hbel.size); obtain ⟨q0, q1, q2, q3, q4, q5, q6, q7, q8, q9, q10, q11, q12, q13, q14, q15, q16, q17⟩ := msg_cells hg; clear hb) | ((with_reducible refine (CC _ hbel).mono ?_); rintro e w2 ⟨rfl, hb⟩; have hg := cells_of hg hb hgl; have hgl := Nat.lt_of_lt_of_le hgl hb.size; have hbel := hbel.trans (hb.mono hbel.size); obtain ⟨q0, q1, q2, q3, q4, q5, q6, q7, q8, q9, q10, q11, q12, q13, q14, q15, q16, q17⟩ := msg_cells hg; clear hb)))
    go_ret
    exact ⟨by first | rfl | simp, hbel⟩
  cases k8
  · obtain rfl : false = r := by rw [← HR.out]; simp
    go_wp2_with (first | (go_at_call 72; first | ((with_reducible refine (CK _).mono ?_); rintro e w2 ⟨rfl, hb⟩; have hg := cells_of hg hb hgl; have hgl := Nat.lt_of_lt_of_le hgl hb.size; have hbel := hbel.trans (hb.mono hbel.size); obtain ⟨q0, q1, q2, q3, q4, q5, q6, q7, q8, q9, q10, q11, q12, q13, q14, q15, q16, q17⟩ := msg_cells hg; clear hb)) | (go_at_call 73; first | ((with_reducible refine (CP _ hbel).mono ?_); rintro e w2 ⟨rfl, hb⟩; have hg := cells_of hg hb hgl; have hgl := Nat.lt_of_lt_of_le hgl hb.size; have hbel := hbel.trans (hb.mono hbel.size); obtain ⟨q0, q1, q2, q3, q4, q5, q6, q7, q8, q9, q10, q11, q12, q13, q14, q15, q16, q17⟩ := msg_cells hg; clear hb) | ((with_reducible refine (CC _ hbel).mono ?_); rintro e w2 ⟨rfl, hb⟩; have hg := cells_of hg hb hgl; have hgl := Nat.lt_of_lt_of_le hgl hb.size; have hbel := hbel.trans (hb.mono hbel.size); obtain ⟨q0, q1, q2, q3, q4, q5, q6, q7, q8, q9, q10, q11, q12, q13, q14, q15, q16, q17⟩ := msg_cells hg; clear hb)))
    go_ret
    exact ⟨by first | rfl | simp, hbel⟩
  cases k9
  · obtain rfl : false = r := by rw [← HR.out]; simp
    go_wp2_with (first | (go_at_call 72; first | ((with_reducible refine (CK _).mono ?_); rintro e w2 ⟨rfl, hb⟩; have hg := cells_of hg hb hgl; have hgl := Nat.lt_of_lt_of_le hgl hb.size; have hbel := hbel.trans (hb.mono hbel.size); obtain ⟨q0, q1, q2, q3, q4, q5, q6, q7, q8, q9, q10, q11, q12, q13, q14, q15, q16, q17⟩ := msg_cells hg; clear hb)) | (go_at_call 73; first | ((with_reducible refine (CP _ hbel).mono ?_); rintro e w2 ⟨rfl, hb⟩; have hg := cells_of hg hb hgl; have hgl := Nat.lt_of_lt_of_le hgl hb.size; have hbel := hbel.trans (hb.mono hbel.size); obtain ⟨q0, q1, q2, q3, q4, q5, q6, q7, q8, q9, q10, q11, q12, q13, q14, q15, q16, q17⟩ := msg_cells hg; clear hb) | ((with_reducible refine (CC _ hbel).mono ?_); rintro e w2 ⟨rfl, hb⟩; have hg := cells_of hg hb hgl; have hgl := Nat.lt_of_lt_of_le hgl hb.size; have hbel := hbel.trans (hb.mono hbel.size); obtain ⟨q0, q1, q2, q3, q4, q5, q6, q7, q8, q9, q10, q11, q12, q13, q14, q15, q16, q17⟩ := msg_cells hg; clear hb)))
    go_ret
    exact ⟨by first | rfl | simp, hbel⟩
  cases k7
  · obtain rfl : false = r := by rw [← HR.out]; simp
    go_wp2_with (first | (go_at_call 72; first | ((with_reducible refine (CK _).mono ?_); rintro e w2 ⟨rfl, hb⟩; have hg := cells_of hg hb hgl; have hgl := Nat.lt_of_lt_of_le hgl hb.size; have hbel := hbel.trans (hb.mono hbel.size); obtain ⟨q0, q1, q2, q3, q4, q5, q6, q7, q8, q9, q10, q11, q12, q13, q14, q15, q16, q17⟩ := msg_cells hg; clear hb)) | (go_at_call 73; first | ((with_reducible refine (CP _ hbel).mono ?_); rintro e w2 ⟨rfl, hb⟩; have hg := cells_of hg hb hgl; have hgl := Nat.lt_of_lt_of_le hgl hb.size; have hbel := hbel.trans (hb.mono hbel.size); obtain ⟨q0, q1, q2, q3, q4, q5, q6, q7, q8, q9, q10, q11, q12, q13, q14, q15, q16, q17⟩ := msg_cells hg; clear hb) | ((with_reducible refine (CC _ hbel).mono ?_); rintro e w2 ⟨rfl, hb⟩; have hg := cells_of hg hb hgl; have hgl := Nat.lt_of_lt_of_le hgl hb.size; have hbel := hbel.trans (hb.mono hbel.size); obtain ⟨q0, q1, q2, q3, q4, q5, q6, q7, q8, q9, q10, q11, q12, q13, q14, q15, q16, q17⟩ := msg_cells hg; clear hb)))
    go_ret
    exact ⟨by first | rfl | simp, hbel⟩
  cases k12
  · obtain rfl : false = r := by rw [← HR.out]; simp
    go_wp2_with (first | (go_at_call 72; first | ((with_reducible refine (CK _).mono ?_); rintro e w2 ⟨rfl, hb⟩; have hg := cells_of hg hb hgl; have hgl := Nat.lt_of_lt_of_le hgl hb.size; have hbel := hbel.trans (hb.mono hbel.size); obtain ⟨q0, q1, q2, q3, q4, q5, q6, q7, q8, q9, q10, q11, q12, q13, q14, q15, q16, q17⟩ := msg_cells hg; clear hb)) | (go_at_call 73; first | ((with_reducible refine (CP _ hbel).mono ?_); rintro e w2 ⟨rfl, hb⟩; have hg := cells_of hg hb hgl; have hgl := Nat.lt_of_lt_of_le hgl hb.size; have hbel := hbel.trans (hb.mono hbel.size); obtain ⟨q0, q1, q2, q3, q4, q5, q6, q7, q8, q9, q10, q11, q12, q13, q14, q15, q16, q17⟩ := msg_cells hg; clear hb) | ((with_reducible refine (CC _ hbel).mono ?_); rintro e w2 ⟨rfl, hb⟩; have hg := cells_of hg hb hgl; have hgl := Nat.lt_of_lt_of_le hgl hb.size; have hbel := hbel.trans (hb.mono hbel.size); obtain ⟨q0, q1, q2, q3, q4, q5, q6, q7, q8, q9, q10, q11, q12, q13, q14, q15, q16, q17⟩ := msg_cells hg; clear hb)))
    go_ret
    exact ⟨by first | rfl | simp, hbel⟩
  cases k10
  · obtain rfl : false = r := by rw [← HR.out]; simp
    go_wp2_with (first | (go_at_call 72; first | ((with_reducible refine (CK _).mono ?_); rintro e w2 ⟨rfl, hb⟩; have hg := cells_of hg hb hgl; have hgl := Nat.lt_of_lt_of_le hgl hb.size; have hbel := hbel.trans (hb.mono hbel.size); obtain ⟨q0, q1, q2, q3, q4, q5, q6, q7, q8, q9, q10, q11, q12, q13, q14, q15, q16, q17⟩ := msg_cells hg; clear hb)) | (go_at_call 73; first | ((with_reducible refine (CP _ hbel).mono ?_); rintro e w2 ⟨rfl, hb⟩; have hg := cells_of hg hb hgl; have hgl := Nat.lt_of_lt_of_le hgl hb.size; have hbel := hbel.trans (hb.mono hbel.size); obtain ⟨q0, q1, q2, q3, q4, q5, q6, q7, q8, q9, q10, q11, q12, q13, q14, q15, q16, q17⟩ := msg_cells hg; clear hb) | ((with_reducible refine (CC _ hbel).mono ?_); rintro e w2 ⟨rfl, hb⟩; have hg := cells_of hg hb hgl; have hgl := Nat.lt_of_lt_of_le hgl hb.size; have hbel := hbel.trans (hb.mono hbel.size); obtain ⟨q0, q1, q2, q3, q4, q5, q6, q7, q8, q9, q10, q11, q12, q13, q14, q15, q16, q17⟩ := msg_cells hg; clear hb)))
    go_ret
    exact ⟨by first | rfl | simp, hbel⟩
  obtain rfl : k11 = r := by rw [← HR.out]; simp
  go_wp2_with (first | (go_at_call 72; first | ((with_reducible refine (CK _).mono ?_); rintro e w2 ⟨rfl, hb⟩; have hg := cells_of hg hb hgl; have hgl := Nat.lt_of_lt_of_le hgl hb.size; have hbel := hbel.trans (hb.mono hbel.size); obtain ⟨q0, q1, q2, q3, q4, q5, q6, q7, q8, q9, q10, q11, q12, q13, q14, q15, q16, q17⟩ := msg_cells hg; clear hb)) | (go_at_call 73; first | ((with_reducible refine (CP _ hbel).mono ?_); rintro e w2 ⟨rfl, hb⟩; have hg := cells_of hg hb hgl; have hgl := Nat.lt_of_lt_of_le hgl hb.size; have hbel := hbel.trans (hb.mono hbel.size); obtain ⟨q0, q1, q2, q3, q4, q5, q6, q7, q8, q9, q10, q11, q12, q13, q14, q15, q16, q17⟩ := msg_cells hg; clear hb) | ((with_reducible refine (CC _ hbel).mono ?_); rintro e w2 ⟨rfl, hb⟩; have hg := cells_of hg hb hgl; have hgl := Nat.lt_of_lt_of_le hgl hb.size; have hbel := hbel.trans (hb.mono hbel.size); obtain ⟨q0, q1, q2, q3, q4, q5, q6, q7, q8, q9, q10, q11, q12, q13, q14, q15, q16, q17⟩ := msg_cells hg; clear hb)))
  go_ret
  exact ⟨by first | rfl | simp, hbel⟩
end Go.Proofs.Ythipnkbfdkmhaaa
