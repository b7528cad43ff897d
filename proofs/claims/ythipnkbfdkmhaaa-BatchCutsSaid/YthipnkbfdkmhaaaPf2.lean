/- Proofs: whether one may be, whether one is light, its steps. -/
import Derived.Test.YthipnkbfdkmhaaaPf
import Derived.WalkKit
import Derived.ProofKit
import Derived.Handy
import Derived.Below
import Derived.Lib.Hide
import Derived.IntWalk
import Derived.Outline
import Derived.WalkLawsBesides
import Derived.WalkSpells
namespace Go.Proofs.Ythipnkbfdkmhaaa
open Go.RowKit
attribute [local go_sem] strV
set_option linter.unusedVariables false

def fitsB (key val : ByteArray) : Bool := decide (0 < key.size) && decide (key.size ≤ 160) && decide (0 < val.size) && decide (val.size ≤ 64)
theorem str_nonempty {s : ByteArray} (h : 0 < s.size) : (s.toList == []) = false ∧ (s.toList != []) = true ∧ s.toList.isEmpty = false := by
  have h1 := str_ne'' h
  exact ⟨h1, by unfold bne; rw [h1]; rfl, str_ne' h⟩
set_option maxRecDepth 100000 in
set_option maxHeartbeats 4000000 in
theorem fits_any (key val : ByteArray) (w : World) :
    Calls Try.prog 99 #[.string key, .string val] w fun e w' => e = .returned (.bool (fitsB key val)) ∧ w = w' := by
  by_cases h0 : key.size = 0
  · rw [show fitsB key val = false by unfold fitsB; rw [h0]; rfl]
    obtain rfl := str_nil h0
    clear h0
    go_enter Try.func99, Try.ntmps99
    go_wp2
    go_ret
    exact ⟨rfl, rfl⟩
  obtain ⟨a1, a2, a3⟩ := str_nonempty (s := key) (by omega)
  by_cases h1 : key.size ≤ 160
  · have d1 : decide ((key.size : Int) ≤ 160) = true := decide_eq_true (by omega)
    have d1n : decide (key.size ≤ 160) = true := decide_eq_true h1
    by_cases h2 : val.size = 0
    · rw [show fitsB key val = false by unfold fitsB; rw [h2]; simp]
      obtain rfl := str_nil h2
      clear h0 h2 h1
      go_enter Try.func99, Try.ntmps99
      go_wp2
      go_ret
      exact ⟨rfl, rfl⟩
    obtain ⟨b1, b2, b3⟩ := str_nonempty (s := val) (by omega)
    by_cases h3 : val.size ≤ 64
    · have d3 : decide ((val.size : Int) ≤ 64) = true := decide_eq_true (by omega)
      have d3n : decide (val.size ≤ 64) = true := decide_eq_true h3
      rw [show fitsB key val = true by unfold fitsB; simp only [Bool.and_eq_true, decide_eq_true_eq]; omega]
      clear h0 h2 h1 h3
      go_enter Try.func99, Try.ntmps99
      go_wp2
      go_ret
      exact ⟨rfl, rfl⟩
    · have d3 : decide ((val.size : Int) ≤ 64) = false := decide_eq_false (by omega)
      have d3n : decide (val.size ≤ 64) = false := decide_eq_false h3
      rw [show fitsB key val = false by unfold fitsB; rw [d3n]; simp]
      clear h0 h2 h1 h3
      go_enter Try.func99, Try.ntmps99
      go_wp2
      go_ret
      exact ⟨rfl, rfl⟩
  · have d1 : decide ((key.size : Int) ≤ 160) = false := decide_eq_false (by omega)
    have d1n : decide (key.size ≤ 160) = false := decide_eq_false h1
    rw [show fitsB key val = false by unfold fitsB; rw [d1n]; simp]
    clear h0 h1
    go_enter Try.func99, Try.ntmps99
    go_wp2
    go_ret
    exact ⟨rfl, rfl⟩
def mayLeafB (ct : Int) (x : LeafV) : Bool := fitsB x.key x.val && decide (0 ≤ x.idx) && decide (x.idx < ct) && decide ((x.path.length : Int) = deepI ct x.idx)
def mayPfB (ct : Int) (xs : List LeafV) : Bool := decide (0 ≤ ct) && decide (ct ≤ 1073741824) && decide (xs.length ≤ 2) && xs.all (mayLeafB ct)
theorem all_takeL {α : Type} {p : α → Bool} {es : List α} {k : Nat} (hk : k < es.length) : (es.take (k + 1)).all p = ((es.take k).all p && p es[k]) := by
  rw [List.take_succ_eq_append_getElem hk, List.all_append]; simp
theorem all_badL {α : Type} {p : α → Bool} {es : List α} {k : Nat} (hk : k < es.length) (h : p es[k] = false) : es.all p = false := by
  rw [List.all_eq_false]; exact ⟨_, List.getElem_mem hk, by rw [h]; decide⟩
set_option maxRecDepth 100000 in
set_option maxHeartbeats 4000000 in
theorem mayPf_any (ct : Int) (a : Option Addr) (n cap : Nat) (xs : List LeafV) (w : World) (h : LvsAt w a xs) (hn : xs.length = n) (hnm : n ≤ maxLen) :
    Calls Try.prog 55 #[.agg #[.int .i64 ct, .slice a n cap]] w fun e w' => e = .returned (.bool (mayPfB ct xs)) ∧ Below w.heap.size w w' := by
  have HN := Lib.hid hn
  unfold maxLen at hnm
  by_cases c1 : ct < 0
  · have d1 : decide (ct < 0) = true := decide_eq_true c1
    rw [show mayPfB ct xs = false by unfold mayPfB; rw [decide_eq_false (show ¬ 0 ≤ ct by omega)]; simp]
    clear c1 hn
    have hg0 := heap_push w #[.int .i64 ct, .slice a n cap] 32
    have hbA : Below w.heap.size w (w.alloc (.cells #[.int .i64 ct, .slice a n cap] 32)) := Below.alloc (Below.refl _ _) (Nat.le_refl _) _
    go_enter Try.func55, Try.ntmps55
    go_upto_region 1 with fail
    refine wp_nameE _ (fun W1 hX => ?_)
    have hg : W1.heap[w.heap.size]? = some (.cells #[.int .i64 ct, .slice a n cap] 32 (0, 0)) := by rw [hX]; exact hg0
    have hbel : Below w.heap.size w W1 := by rw [hX]; exact hbA
    clear hX hg0 hbA
    have hgl : w.heap.size < W1.heap.size := (Array.getElem?_eq_some_iff.1 hg).1
    have q0 := cell_heap hg 0; have q1 := cell_heap hg 1
    go_wp2
    go_ret
    exact ⟨rfl, hbel⟩
  have d1 : decide (ct < 0) = false := decide_eq_false c1
  by_cases c2 : 1073741824 < ct
  · have d2 : decide (1073741824 < ct) = true := decide_eq_true c2
    rw [show mayPfB ct xs = false by unfold mayPfB; rw [decide_eq_false (show ¬ ct ≤ 1073741824 by omega)]; simp]
    clear c1 c2 hn
    have hg0 := heap_push w #[.int .i64 ct, .slice a n cap] 32
    have hbA : Below w.heap.size w (w.alloc (.cells #[.int .i64 ct, .slice a n cap] 32)) := Below.alloc (Below.refl _ _) (Nat.le_refl _) _
    go_enter Try.func55, Try.ntmps55
    go_upto_region 1 with fail
    refine wp_nameE _ (fun W1 hX => ?_)
    have hg : W1.heap[w.heap.size]? = some (.cells #[.int .i64 ct, .slice a n cap] 32 (0, 0)) := by rw [hX]; exact hg0
    have hbel : Below w.heap.size w W1 := by rw [hX]; exact hbA
    clear hX hg0 hbA
    have hgl : w.heap.size < W1.heap.size := (Array.getElem?_eq_some_iff.1 hg).1
    have q0 := cell_heap hg 0; have q1 := cell_heap hg 1
    go_wp2
    go_ret
    exact ⟨rfl, hbel⟩
  have d2 : decide (1073741824 < ct) = false := decide_eq_false c2
  by_cases c3 : 2 < n
  · have d3 : decide (2 < (n : Int)) = true := decide_eq_true (by omega)
    have d3n : decide (2 < n) = true := decide_eq_true c3
    rw [show mayPfB ct xs = false by unfold mayPfB; rw [decide_eq_false (show ¬ xs.length ≤ 2 by omega)]; simp]
    clear c1 c2 c3 hn
    have hg0 := heap_push w #[.int .i64 ct, .slice a n cap] 32
    have hbA : Below w.heap.size w (w.alloc (.cells #[.int .i64 ct, .slice a n cap] 32)) := Below.alloc (Below.refl _ _) (Nat.le_refl _) _
    go_enter Try.func55, Try.ntmps55
    go_upto_region 1 with fail
    refine wp_nameE _ (fun W1 hX => ?_)
    have hg : W1.heap[w.heap.size]? = some (.cells #[.int .i64 ct, .slice a n cap] 32 (0, 0)) := by rw [hX]; exact hg0
    have hbel : Below w.heap.size w W1 := by rw [hX]; exact hbA
    clear hX hg0 hbA
    have hgl : w.heap.size < W1.heap.size := (Array.getElem?_eq_some_iff.1 hg).1
    have q0 := cell_heap hg 0; have q1 := cell_heap hg 1
    go_wp2
    go_ret
    exact ⟨rfl, hbel⟩
  have d3 : decide (2 < (n : Int)) = false := decide_eq_false (by omega)
  have d3n : decide (2 < n) = false := decide_eq_false c3
  obtain ⟨r, hr⟩ : ∃ r, xs.all (mayLeafB ct) = r := ⟨_, rfl⟩
  rw [show mayPfB ct xs = r by unfold mayPfB; rw [decide_eq_true (show 0 ≤ ct by omega), decide_eq_true (show ct ≤ 1073741824 by omega), decide_eq_true (show xs.length ≤ 2 by omega), hr]; rfl]
  have HF := Lib.hid hr
  clear hr hn c1 c2
  have hg0 := heap_push w #[.int .i64 ct, .slice a n cap] 32
  have hbA : Below w.heap.size w (w.alloc (.cells #[.int .i64 ct, .slice a n cap] 32)) := Below.alloc (Below.refl _ _) (Nat.le_refl _) _
  go_enter Try.func55, Try.ntmps55
  go_upto_region 1 with fail
  refine wp_nameE _ (fun W1 hX => ?_)
  have hg : W1.heap[w.heap.size]? = some (.cells #[.int .i64 ct, .slice a n cap] 32 (0, 0)) := by rw [hX]; exact hg0
  have hbel : Below w.heap.size w W1 := by rw [hX]; exact hbA
  clear hX hg0 hbA
  have hgl : w.heap.size < W1.heap.size := (Array.getElem?_eq_some_iff.1 hg).1
  have q0 := cell_heap hg 0; have q1 := cell_heap hg 1
  go_upto_region 4 with fail
  go_loopw [22] (fun i wr => ∃ k : Nat, k ≤ n ∧ i = .int .i64 k ∧ Hid ((xs.take k).all (mayLeafB ct) = true) ∧ Below W1.heap.size W1 wr) (fun i _ => n - (intOf i).toNat)
  case atStart => exact ⟨0, Nat.zero_le _, rfl, Lib.hid (by simp), Below.refl _ _⟩
  case round =>
    obtain ⟨k, hk, rfl, HT, hb⟩ := hrel
    have hbel := hbel.trans (hb.mono hbel.size)
    have hg := cells_of hg hb hgl
    have hgl := Nat.lt_of_lt_of_le hgl hb.size
    have q0 := cell_heap hg 0; have q1 := cell_heap hg 1
    by_cases hlt : k < n
    · have d1 : decide ((k : Int) < (n : Int)) = true := decide_eq_true (by omega)
      have d1n : decide (k < n) = true := decide_eq_true hlt
      have hkl : k < xs.length := by rw [HN.out]; exact hlt
      obtain ⟨b1, o1, rfl, hb1, hg1⟩ := lv_range (h.row.below hbel) hkl
      have ok1 := (h.each _ (List.getElem_mem hkl)).below hbel
      have hstep := all_takeL (p := mayLeafB ct) hkl
      have hbad := all_badL (p := mayLeafB ct) hkl
      obtain ⟨⟨key, val, idx, pa, pn, pc, path⟩, hp⟩ : ∃ p, xs[k] = p := ⟨_, rfl⟩
      rw [hp] at hg1 ok1 hstep hbad
      have hg1 : wr.rangeAt b1 (o1 + k * 4) [.string key, .string val, .int .i64 idx, .slice pa pn pc] := hg1
      have hpl : path.length = pn := ok1.len
      rw [HT.out] at hstep
      have n0 : (0 : Int) ≤ (k : Int) := by omega
      have n1' : (k : Int) < (n : Int) := by omega
      have n2' : ((k : Nat) : Int).toNat = k := by omega
      clear hp ok1
      go_upto_region 6 with (first | (refine wpList_load_mid rfl 111 (.tmp 24) rfl b1 _ rfl _ _ hg1 Try.underlying111 rfl (by kernel_rfl) ?_) | (refine wpList_storeRowTo rfl (.tmp 4) (.tmp 25) 111 rfl (by kernel_rfl) rfl (by rfl) (heap_push _ _ _) rfl (leaf_one _ _ _ _ _ _) ?_))
      refine wp_nameE _ (fun W5 hX => ?_)
      have hb5 : Below wr.heap.size wr W5 := by rw [hX]; first | exact below_setRow (Below.alloc (Below.refl _ _) (Nat.le_refl _) _) (Nat.le_refl _) _ | exact Below.alloc (Below.refl _ _) (Nat.le_refl _) _
      have hx : W5.heap[wr.heap.size]? = some (.cells #[.string key, .string val, .int .i64 idx, .slice pa pn pc] 111 (0, 0)) := by rw [hX]; first | exact setRow_heap _ _ _ _ _ _ (heap_push _ _ _) | exact heap_push _ _ _
      clear hX hg1
      have hxl : wr.heap.size < W5.heap.size := (Array.getElem?_eq_some_iff.1 hx).1
      have hb := hb.trans (hb5.mono hb.size)
      have hg := cells_of hg hb5 hgl
      have hgl := Nat.lt_of_lt_of_le hgl hb5.size
      have hbel := hbel.trans (hb5.mono hbel.size)
      have q0 := cell_heap hg 0; have q1 := cell_heap hg 1; have x0 := cell_heap hx 0; have x1 := cell_heap hx 1; have x2 := cell_heap hx 2; have x3 := cell_heap hx 3
      have CF := fun W => fits_any key val W
      have CD := fun W => deep_any ct idx W
      obtain ⟨fb, hfb⟩ : ∃ b, fitsB key val = b := ⟨_, rfl⟩
      obtain ⟨D, hD⟩ : ∃ d, deepI ct idx = d := ⟨_, rfl⟩
      have hml : mayLeafB ct ⟨key, val, idx, pa, pn, pc, path⟩ = (fb && decide (0 ≤ idx) && decide (idx < ct) && decide ((pn : Int) = D)) := by unfold mayLeafB; simp only [hfb, hD, hpl]
      simp only [hfb] at CF
      simp only [hD] at CD
      rw [hml] at hstep hbad
      clear hml hfb hD hpl
      have hcb := (beyond_cells (W := W5)).1
      have hfz := (beyond_cells (W := W5)).2
      cases fb
      · obtain rfl : false = r := by rw [← HF.out, hbad (by simp)]
        clear hstep hbad
        refine wp_region_below (by kernel_rfl) (by kernel_rfl) ?_
        repeat (go_big_quiet_step (first | (go_at_call 99; exact quiet_below_same (CF _)) | (go_at_call 100; exact quiet_below (CD _))))
        intro w9 hw9
        have hb9 := beyond_below hw9
        go_wp2
        go_ret
        exact ⟨rfl, hbel.trans (hb9.mono hbel.size)⟩
      by_cases e1 : idx < 0
      · have f1 : decide (idx < 0) = true := decide_eq_true e1
        obtain rfl : false = r := by rw [← HF.out, hbad (by rw [decide_eq_false (show ¬ 0 ≤ idx by omega)]; simp)]
        clear hstep hbad e1
        refine wp_region_below (by kernel_rfl) (by kernel_rfl) ?_
        repeat (go_big_quiet_step (first | (go_at_call 99; exact quiet_below_same (CF _)) | (go_at_call 100; exact quiet_below (CD _))))
        intro w9 hw9
        have hb9 := beyond_below hw9
        go_wp2
        go_ret
        exact ⟨rfl, hbel.trans (hb9.mono hbel.size)⟩
      have f1 : decide (idx < 0) = false := decide_eq_false e1
      by_cases e2 : ct ≤ idx
      · have f2 : decide (ct ≤ idx) = true := decide_eq_true e2
        obtain rfl : false = r := by rw [← HF.out, hbad (by rw [decide_eq_false (show ¬ idx < ct by omega)]; simp)]
        clear hstep hbad e1 e2
        refine wp_region_below (by kernel_rfl) (by kernel_rfl) ?_
        repeat (go_big_quiet_step (first | (go_at_call 99; exact quiet_below_same (CF _)) | (go_at_call 100; exact quiet_below (CD _))))
        intro w9 hw9
        have hb9 := beyond_below hw9
        go_wp2
        go_ret
        exact ⟨rfl, hbel.trans (hb9.mono hbel.size)⟩
      have f2 : decide (ct ≤ idx) = false := decide_eq_false e2
      by_cases e3 : (pn : Int) = D
      · have f3 : ((pn : Int) != D) = false := by rw [e3]; simp
        have hs9 : (xs.take (k + 1)).all (mayLeafB ct) = true := by rw [hstep, decide_eq_true (show 0 ≤ idx by omega), decide_eq_true (show idx < ct by omega), decide_eq_true e3]; rfl
        have HS := Lib.hid hs9
        clear hstep hbad hs9 e1 e2 e3
        refine wp_region_below (by kernel_rfl) (by kernel_rfl) ?_
        repeat (go_big_quiet_step (first | (go_at_call 99; exact quiet_below_same (CF _)) | (go_at_call 100; exact quiet_below (CD _))))
        intro w9 hw9
        have hb9 := beyond_below hw9
        go_wp2
        go_roundw
        case rel => exact ⟨k + 1, by omega, by go_num, HS, hb.trans (hb9.mono hb.size)⟩
        case measure => (simp [intOf]) <;> omega
      · have f3 : ((pn : Int) != D) = true := by rw [bne_iff_ne]; exact e3
        obtain rfl : false = r := by rw [← HF.out, hbad (by rw [decide_eq_false e3]; simp)]
        clear hstep hbad e1 e2 e3
        refine wp_region_below (by kernel_rfl) (by kernel_rfl) ?_
        repeat (go_big_quiet_step (first | (go_at_call 99; exact quiet_below_same (CF _)) | (go_at_call 100; exact quiet_below (CD _))))
        intro w9 hw9
        have hb9 := beyond_below hw9
        go_wp2
        go_ret
        exact ⟨rfl, hbel.trans (hb9.mono hbel.size)⟩
    · have d9 : decide ((k : Int) < (n : Int)) = false := decide_eq_false (by omega)
      have d9n : decide (k < n) = false := decide_eq_false hlt
      obtain rfl : true = r := by rw [← HF.out, ← HT.out, List.take_of_length_le (by rw [HN.out]; omega)]
      go_wp2
      go_ret
      exact ⟨rfl, hbel⟩
def lightLeaf (x : LeafV) : Bool := decide (x.key.size ≤ 400) && decide (x.val.size ≤ 400) && decide (x.path.length ≤ 40)
def lightPf (xs : List LeafV) : Bool := decide (xs.length ≤ 5) && xs.all lightLeaf
set_option maxRecDepth 100000 in
set_option maxHeartbeats 4000000 in
theorem lightPf_any (ct : Int) (a : Option Addr) (n cap : Nat) (xs : List LeafV) (w : World) (h : LvsAt w a xs) (hn : xs.length = n) (hnm : n ≤ maxLen) :
    Calls Try.prog 47 #[.agg #[.int .i64 ct, .slice a n cap]] w fun e w' => e = .returned (.bool (lightPf xs)) ∧ Below w.heap.size w w' := by
  have HN := Lib.hid hn
  unfold maxLen at hnm
  by_cases c3 : 5 < n
  · have d3 : decide (5 < (n : Int)) = true := decide_eq_true (by omega)
    have d3n : decide (5 < n) = true := decide_eq_true c3
    rw [show lightPf xs = false by unfold lightPf; rw [decide_eq_false (show ¬ xs.length ≤ 5 by omega)]; simp]
    clear c3 hn
    have hg0 := heap_push w #[.int .i64 ct, .slice a n cap] 32
    have hbA : Below w.heap.size w (w.alloc (.cells #[.int .i64 ct, .slice a n cap] 32)) := Below.alloc (Below.refl _ _) (Nat.le_refl _) _
    go_enter Try.func47, Try.ntmps47
    go_upto_region 1 with fail
    refine wp_nameE _ (fun W1 hX => ?_)
    have hg : W1.heap[w.heap.size]? = some (.cells #[.int .i64 ct, .slice a n cap] 32 (0, 0)) := by rw [hX]; exact hg0
    have hbel : Below w.heap.size w W1 := by rw [hX]; exact hbA
    clear hX hg0 hbA
    have hgl : w.heap.size < W1.heap.size := (Array.getElem?_eq_some_iff.1 hg).1
    have q0 := cell_heap hg 0; have q1 := cell_heap hg 1
    go_wp2
    go_ret
    exact ⟨rfl, hbel⟩
  have d3 : decide (5 < (n : Int)) = false := decide_eq_false (by omega)
  have d3n : decide (5 < n) = false := decide_eq_false c3
  obtain ⟨r, hr⟩ : ∃ r, xs.all lightLeaf = r := ⟨_, rfl⟩
  rw [show lightPf xs = r by unfold lightPf; rw [decide_eq_true (show xs.length ≤ 5 by omega), hr]; rfl]
  have HF := Lib.hid hr
  clear hr hn
  have hg0 := heap_push w #[.int .i64 ct, .slice a n cap] 32
  have hbA : Below w.heap.size w (w.alloc (.cells #[.int .i64 ct, .slice a n cap] 32)) := Below.alloc (Below.refl _ _) (Nat.le_refl _) _
  go_enter Try.func47, Try.ntmps47
  go_upto_region 1 with fail
  refine wp_nameE _ (fun W1 hX => ?_)
  have hg : W1.heap[w.heap.size]? = some (.cells #[.int .i64 ct, .slice a n cap] 32 (0, 0)) := by rw [hX]; exact hg0
  have hbel : Below w.heap.size w W1 := by rw [hX]; exact hbA
  clear hX hg0 hbA
  have hgl : w.heap.size < W1.heap.size := (Array.getElem?_eq_some_iff.1 hg).1
  have q0 := cell_heap hg 0; have q1 := cell_heap hg 1
  go_upto_region 4 with fail
  go_loopw [3] (fun i wr => ∃ k : Nat, k ≤ n ∧ i = .int .i64 k ∧ Hid ((xs.take k).all lightLeaf = true) ∧ Below W1.heap.size W1 wr) (fun i _ => n - (intOf i).toNat)
  case atStart => exact ⟨0, Nat.zero_le _, rfl, Lib.hid (by simp), Below.refl _ _⟩
  case round =>
    obtain ⟨k, hk, rfl, HT, hb⟩ := hrel
    have hbel := hbel.trans (hb.mono hbel.size)
    have hg := cells_of hg hb hgl
    have hgl := Nat.lt_of_lt_of_le hgl hb.size
    have q0 := cell_heap hg 0; have q1 := cell_heap hg 1
    by_cases hlt : k < n
    · have d1 : decide ((k : Int) < (n : Int)) = true := decide_eq_true (by omega)
      have d1n : decide (k < n) = true := decide_eq_true hlt
      have hkl : k < xs.length := by rw [HN.out]; exact hlt
      obtain ⟨b1, o1, rfl, hb1, hg1⟩ := lv_range (h.row.below hbel) hkl
      have ok1 := (h.each _ (List.getElem_mem hkl)).below hbel
      have hstep := all_takeL (p := lightLeaf) hkl
      have hbad := all_badL (p := lightLeaf) hkl
      obtain ⟨⟨key, val, idx, pa, pn, pc, path⟩, hp⟩ : ∃ p, xs[k] = p := ⟨_, rfl⟩
      rw [hp] at hg1 ok1 hstep hbad
      have hg1 : wr.rangeAt b1 (o1 + k * 4) [.string key, .string val, .int .i64 idx, .slice pa pn pc] := hg1
      have hpl : path.length = pn := ok1.len
      rw [HT.out] at hstep
      have n0 : (0 : Int) ≤ (k : Int) := by omega
      have n1' : (k : Int) < (n : Int) := by omega
      have n2' : ((k : Nat) : Int).toNat = k := by omega
      clear hp ok1
      go_upto_region 7 with (first | (refine wpList_load_mid rfl 111 (.tmp 19) rfl b1 _ rfl _ _ hg1 Try.underlying111 rfl (by kernel_rfl) ?_) | (refine wpList_storeRowTo rfl (.tmp 4) (.tmp 20) 111 rfl (by kernel_rfl) rfl (by rfl) (heap_push _ _ _) rfl (leaf_one _ _ _ _ _ _) ?_))
      refine wp_nameE _ (fun W5 hX => ?_)
      have hb5 : Below wr.heap.size wr W5 := by rw [hX]; first | exact below_setRow (Below.alloc (Below.refl _ _) (Nat.le_refl _) _) (Nat.le_refl _) _ | exact Below.alloc (Below.refl _ _) (Nat.le_refl _) _
      have hx : W5.heap[wr.heap.size]? = some (.cells #[.string key, .string val, .int .i64 idx, .slice pa pn pc] 111 (0, 0)) := by rw [hX]; first | exact setRow_heap _ _ _ _ _ _ (heap_push _ _ _) | exact heap_push _ _ _
      clear hX hg1
      have hxl : wr.heap.size < W5.heap.size := (Array.getElem?_eq_some_iff.1 hx).1
      have hb := hb.trans (hb5.mono hb.size)
      have hg := cells_of hg hb5 hgl
      have hgl := Nat.lt_of_lt_of_le hgl hb5.size
      have hbel := hbel.trans (hb5.mono hbel.size)
      have q0 := cell_heap hg 0; have q1 := cell_heap hg 1; have x0 := cell_heap hx 0; have x1 := cell_heap hx 1; have x2 := cell_heap hx 2; have x3 := cell_heap hx 3
      have hml : lightLeaf ⟨key, val, idx, pa, pn, pc, path⟩ = (decide (key.size ≤ 400) && decide (val.size ≤ 400) && decide (pn ≤ 40)) := by unfold lightLeaf; simp only [hpl]
      rw [hml] at hstep hbad
      clear hml hpl
      by_cases e1 : 400 < key.size
      · have fe1 : decide (400 < (key.size : Int)) = true := decide_eq_true (by omega)
        have ge1 : decide (400 < key.size) = true := decide_eq_true e1
        obtain rfl : false = r := by rw [← HF.out, hbad (by rw [decide_eq_false (show ¬ key.size ≤ 400 by omega)]; simp)]
        clear hstep hbad
        go_wp2
        go_ret
        exact ⟨rfl, hbel⟩
      have fe1 : decide (400 < (key.size : Int)) = false := decide_eq_false (by omega)
      have ge1 : decide (400 < key.size) = false := decide_eq_false e1
      by_cases e2 : 400 < val.size
      · have fe2 : decide (400 < (val.size : Int)) = true := decide_eq_true (by omega)
        have ge2 : decide (400 < val.size) = true := decide_eq_true e2
        obtain rfl : false = r := by rw [← HF.out, hbad (by rw [decide_eq_false (show ¬ val.size ≤ 400 by omega)]; simp)]
        clear hstep hbad
        go_wp2
        go_ret
        exact ⟨rfl, hbel⟩
      have fe2 : decide (400 < (val.size : Int)) = false := decide_eq_false (by omega)
      have ge2 : decide (400 < val.size) = false := decide_eq_false e2
      by_cases e3 : 40 < pn
      · have fe3 : decide (40 < (pn : Int)) = true := decide_eq_true (by omega)
        have ge3 : decide (40 < pn) = true := decide_eq_true e3
        obtain rfl : false = r := by rw [← HF.out, hbad (by rw [decide_eq_false (show ¬ pn ≤ 40 by omega)]; simp)]
        clear hstep hbad
        go_wp2
        go_ret
        exact ⟨rfl, hbel⟩
      have fe3 : decide (40 < (pn : Int)) = false := decide_eq_false (by omega)
      have ge3 : decide (40 < pn) = false := decide_eq_false e3
      have hs9 : (xs.take (k + 1)).all lightLeaf = true := by rw [hstep, decide_eq_true (show key.size ≤ 400 by omega), decide_eq_true (show val.size ≤ 400 by omega), decide_eq_true (show pn ≤ 40 by omega)]; rfl
      have HS := Lib.hid hs9
      clear hstep hbad hs9 e1 e2 e3
      go_wp2
      go_roundw
      case rel => exact ⟨k + 1, by omega, by go_num, HS, hb⟩
      case measure => (simp [intOf]) <;> omega
    · have d9 : decide ((k : Int) < (n : Int)) = false := decide_eq_false (by omega)
      have d9n : decide (k < n) = false := decide_eq_false hlt
      obtain rfl : true = r := by rw [← HF.out, ← HT.out, List.take_of_length_le (by rw [HN.out]; omega)]
      go_wp2
      go_ret
      exact ⟨rfl, hbel⟩
end Go.Proofs.Ythipnkbfdkmhaaa
