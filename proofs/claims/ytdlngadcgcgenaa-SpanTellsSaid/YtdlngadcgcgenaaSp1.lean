/- span.Good, Count, Has. -/
import Derived.Test.YtdlngadcgcgenaaSpM
import Derived.BigRegion
import Derived.RegionTactic
import Derived.BigQuiet
import Derived.Deep.QuietTactic
import Derived.Deep.MidRow
import Derived.LoopTactic
import Derived.BigFrame
import Derived.WalkKit
import Derived.ProofKit
import Derived.Handy
import Derived.Below
import Derived.Lib.Hide
import Derived.IntWalk
import Derived.Outline
import Derived.WalkLawsBesides
import Derived.WalkSpells
namespace Go.Proofs.Ytdlngadcgcgenaa
open Go.RowKit
attribute [local go_sem] strV
set_option linter.unusedVariables false
theorem rg_range {w : World} {a : Option Addr} {l : List (Int × Int)} (h : RowAt w a (l.flatMap rgL)) {k : Nat} (hk : k < l.length) :
    ∃ b off, a = some ⟨b, off, none⟩ ∧ b < w.heap.size ∧ w.rangeAt b (off + k * 2) (rgL l[k]) := by
  obtain ⟨b, off, ha, hb, hc⟩ := h.elem rgL_len hk (by decide)
  refine ⟨b, off, ha, hb, fun j v hv => ?_⟩
  have hj : j < 2 := by have := (List.getElem?_eq_some_iff.1 hv).1; rwa [rgL_len] at this
  rw [Nat.add_assoc, hc j hj, hv]
set_option maxHeartbeats 1000000 in
theorem inside_any (x : Int) (w : World) : Calls Try.prog 38 #[.int .i64 x] w fun e w' => e = .returned (.bool (insideB x)) ∧ Below w.heap.size w w' := by
  unfold insideB maxN
  obtain ⟨p, hp⟩ : ∃ p, decide (0 ≤ x) = p := ⟨_, rfl⟩
  obtain ⟨q, hq⟩ : ∃ q, decide (x ≤ 72057594037927935) = q := ⟨_, rfl⟩
  rw [hp, hq]
  cases p
  · go_enter Try.func38, Try.ntmps38
    go_wp2
    go_ret
    exact ⟨by first | rfl | simp, Below.refl _ _⟩
  · go_enter Try.func38, Try.ntmps38
    go_wp2
    go_ret
    exact ⟨by first | rfl | simp, Below.refl _ _⟩
set_option maxRecDepth 100000 in
set_option maxHeartbeats 6400000 in
theorem good_any (a : Option Addr) (n cap : Nat) (l : List (Int × Int)) (w : World) (hr : RowAt w a (l.flatMap rgL)) (hn : l.length = n) (hm : n ≤ maxLen) :
    Calls Try.prog 9 #[.slice a n cap] w fun e w' => e = .returned (.bool (goodR l)) ∧ Below w.heap.size w w' := by
  obtain ⟨r, hr9⟩ : ∃ r, goodR l = r := ⟨_, rfl⟩
  rw [hr9]
  have HR := Lib.hid hr9
  unfold maxLen at hm
  have HN := Lib.hid hn
  clear hr9 hn
  go_enter Try.func9, Try.ntmps9
  go_upto_region 3 with fail
  go_loopw [3, 8] (fun v i wr => ∃ (k : Nat) (L : Int), k ≤ n ∧ i = .int .i64 k ∧ v = .int .i64 L ∧ -2 ≤ L ∧ L ≤ 72057594037927935 ∧ Hid (goodFrom L (l.drop k) = r) ∧ Below w.heap.size w wr) (fun _ i _ => n - (intOf i).toNat)
  case atStart => exact ⟨0, -2, Nat.zero_le _, rfl, rfl, by omega, by omega, Lib.hid HR.out, Below.refl _ _⟩
  case round =>
    obtain ⟨k, L, hk, rfl, rfl, hL1, hL2, HG, hbel⟩ := hrel
    by_cases hlt : k < n
    rotate_left
    · have d9 : decide ((k : Int) < (n : Int)) = false := decide_eq_false (by omega)
      have d9n : decide (k < n) = false := decide_eq_false hlt
      obtain rfl : r = true := by rw [← HG.out, List.drop_of_length_le (by rw [HN.out]; omega)]; rfl
      go_wp2
      go_ret
      exact ⟨by first | rfl | simp, hbel⟩
    have d9 : decide ((k : Int) < (n : Int)) = true := decide_eq_true (by omega)
    have d9n : decide (k < n) = true := decide_eq_true hlt
    have hkl : k < l.length := by rw [HN.out]; exact hlt
    obtain ⟨b1, o1, rfl, hb1, hg1⟩ := rg_range (hr.below hbel) hkl
    have hkm := List.getElem?_eq_getElem hkl
    have hdr := List.drop_eq_getElem_cons hkl
    obtain ⟨⟨x, y⟩, hxy⟩ : ∃ p, l[k] = p := ⟨_, rfl⟩
    rw [hxy] at hg1 hkm hdr
    have hg1 : wr.rangeAt b1 (o1 + k * 2) (#[.int .i64 x, .int .i64 y] : Array Value).toList := hg1
    clear hxy
    have n0 : (0 : Int) ≤ (k : Int) := by omega
    have n1 : (k : Int) < (n : Int) := by omega
    have n2 : ((k : Nat) : Int).toNat = k := by omega
    have HG : Hid (goodFrom L ((x, y) :: l.drop (k + 1)) = r) := Lib.hid (by rw [← hdr]; exact HG.out)
    clear hkm hdr
    go_upto_region 5 with (first | (refine wpList_load_mid rfl 62 (.tmp 10) rfl b1 _ rfl ((#[.int .i64 x, .int .i64 y] : Array Value).toList) _ hg1 Try.underlying62 rfl (by rfl) ?_; rw [Array.toArray_toList]) | fail)
    refine wp_nameE _ (fun W6 hX => ?_)
    have hb6 : Below wr.heap.size wr W6 := by rw [hX]; exact Below.alloc (Below.refl _ _) (Nat.le_refl _) _
    have hszg : w.heap.size ≤ wr.heap.size := hbel.size
    have hx6 : W6.heap[wr.heap.size]? = some (.cells #[.int .i64 x, .int .i64 y] 62 (0, 0)) := by rw [hX]; exact heap_push _ _ _
    have hbel := hbel.trans (hb6.mono hbel.size)
    obtain ⟨g6, hg6⟩ : ∃ g, wr.heap.size = g := ⟨_, rfl⟩
    rw [hg6] at hx6 hszg
    simp only [hg6]
    clear hX hg1 hg6
    have c0 : W6.cell? ⟨g6, 0, none⟩ = some (.int .i64 x) := cell_heap hx6 0
    have c1 : W6.cell? ⟨g6, 1, none⟩ = some (.int .i64 y) := cell_heap hx6 1
    by_cases h1 : x < 0
    · have dh1 : decide (x < 0) = true := decide_eq_true h1
      obtain rfl : r = false := by rw [← HG.out]; cases hgf : goodFrom L ((x, y) :: l.drop (k + 1)) with
        | false => rfl
        | true => have := (goodFrom_cons.1 hgf).1; unfold maxN at this; simp only [] at this; omega
      go_wp2
      go_ret
      exact ⟨by first | rfl | simp, hbel⟩
    have dh1 : decide (x < 0) = false := decide_eq_false h1
    by_cases h2 : y < x
    · have dh2 : decide (y < x) = true := decide_eq_true h2
      obtain rfl : r = false := by rw [← HG.out]; cases hgf : goodFrom L ((x, y) :: l.drop (k + 1)) with
        | false => rfl
        | true => have := (goodFrom_cons.1 hgf).1; unfold maxN at this; simp only [] at this; omega
      go_wp2
      go_ret
      exact ⟨by first | rfl | simp, hbel⟩
    have dh2 : decide (y < x) = false := decide_eq_false h2
    by_cases h3 : 72057594037927935 < y
    · have dh3 : decide (72057594037927935 < y) = true := decide_eq_true h3
      obtain rfl : r = false := by rw [← HG.out]; cases hgf : goodFrom L ((x, y) :: l.drop (k + 1)) with
        | false => rfl
        | true => have := (goodFrom_cons.1 hgf).1; unfold maxN at this; simp only [] at this; omega
      go_wp2
      go_ret
      exact ⟨by first | rfl | simp, hbel⟩
    have dh3 : decide (72057594037927935 < y) = false := decide_eq_false h3
    by_cases h4 : x < L + 2
    · have dh4 : decide (x < L + 2) = true := decide_eq_true h4
      obtain rfl : r = false := by rw [← HG.out]; cases hgf : goodFrom L ((x, y) :: l.drop (k + 1)) with
        | false => rfl
        | true => have := (goodFrom_cons.1 hgf).1; unfold maxN at this; simp only [] at this; omega
      go_wp2
      go_ret
      exact ⟨by first | rfl | simp, hbel⟩
    have dh4 : decide (x < L + 2) = false := decide_eq_false h4
    have HG2 : Hid (goodFrom y (l.drop (k + 1)) = r) := Lib.hid (by
      rw [← HG.out]
      show goodFrom y _ = (if x < 0 ∨ y < x ∨ maxN < y ∨ x < L + 2 then false else goodFrom y (l.drop (k + 1)))
      rw [if_neg (by unfold maxN; omega)])
    go_wp2
    go_roundw
    case rel => exact ⟨k + 1, y, by omega, by go_num, rfl, by omega, by omega, HG2, hbel⟩
    case measure => (simp [intOf]) <;> omega
theorem goodFrom_drop {l : List (Int × Int)} : ∀ {p : Int}, goodFrom p l = true → ∀ k, ∃ q, goodFrom q (l.drop k) = true := by
  induction l with
  | nil => intro p h k; exact ⟨p, by rw [List.drop_nil]; exact h⟩
  | cons r l ih =>
    intro p h k
    cases k with
    | zero => exact ⟨p, h⟩
    | succ k => exact ih (goodFrom_cons.1 h).2 k
theorem good_snoc {l : List (Int × Int)} : ∀ {p : Int} {k : Nat} (hk : k < l.length), goodFrom p l = true → 0 ≤ countR (l.take k) ∧ countR (l.take k) ≤ max 0 (l[k].1 - p - 2) ∧ p + 2 ≤ l[k].1 := by
  induction l with
  | nil => intro p k hk; simp at hk
  | cons r l ih =>
    intro p k hk h
    obtain ⟨h1, h2⟩ := goodFrom_cons.1 h
    cases k with
    | zero => exact ⟨Int.le_refl _, by show (0 : Int) ≤ _; omega, h1.2.2.2⟩
    | succ k =>
      have hk' : k < l.length := by simpa using hk
      obtain ⟨q1, q2, q3⟩ := ih hk' h2
      rw [List.take_succ_cons, countR_cons]
      simp only [List.getElem_cons_succ]
      omega
theorem countR_take {l : List (Int × Int)} {k : Nat} (hk : k < l.length) : countR (l.take (k + 1)) = countR (l.take k) + (l[k].2 - l[k].1 + 1) := by
  unfold countR
  rw [List.take_succ_eq_append_getElem hk, List.map_append, List.sum_append]
  simp
set_option maxRecDepth 100000 in
set_option maxHeartbeats 6400000 in
theorem count_any (a : Option Addr) (n cap : Nat) (l : List (Int × Int)) (w : World) (hr : RowAt w a (l.flatMap rgL)) (hn : l.length = n) (hm : n ≤ maxLen) :
    Calls Try.prog 12 #[.slice a n cap] w fun e w' => e = .returned (.int .i64 (if goodR l = true then countR l else 0)) ∧ Below w.heap.size w w' := by
  have CG := fun W (hb : Below w.heap.size w W) => good_any a n cap l W (hr.below hb) hn hm
  obtain ⟨gd, hgd⟩ : ∃ r, goodR l = r := ⟨_, rfl⟩
  simp only [hgd] at CG ⊢
  have HGD := Lib.hid hgd
  unfold maxLen at hm
  have HN := Lib.hid hn
  clear hgd hn
  cases gd
  · rw [if_neg Bool.false_ne_true]
    go_enter Try.func12, Try.ntmps12
    go_wp2_with (go_at_call 9; refine (CG _ (Below.refl _ _)).mono ?_; rintro e w2 ⟨rfl, hb⟩)
    go_ret
    exact ⟨by first | rfl | simp, hb⟩
  rw [if_pos rfl]
  go_enter Try.func12, Try.ntmps12
  go_upto_region 5 with (go_at_call 9; refine (CG _ (Below.refl _ _)).mono ?_; rintro e w2 ⟨rfl, hbel⟩)
  go_loopw [3, 11] (fun v i wr => ∃ k : Nat, k ≤ n ∧ i = .int .i64 k ∧ v = .int .i64 (countR (l.take k)) ∧ Below w.heap.size w wr) (fun _ i _ => n - (intOf i).toNat)
  case atStart => exact ⟨0, Nat.zero_le _, rfl, rfl, hbel⟩
  case round =>
    clear hbel
    obtain ⟨k, hk, rfl, rfl, hbel⟩ := hrel
    by_cases hlt : k < n
    rotate_left
    · have d9 : decide ((k : Int) < (n : Int)) = false := decide_eq_false (by omega)
      have d9n : decide (k < n) = false := decide_eq_false hlt
      have hll := List.take_of_length_le (l := l) (i := k) (by rw [HN.out]; omega)
      go_wp2
      go_ret
      exact ⟨by first | rfl | simp [hll], hbel⟩
    have d9 : decide ((k : Int) < (n : Int)) = true := decide_eq_true (by omega)
    have d9n : decide (k < n) = true := decide_eq_true hlt
    have hkl : k < l.length := by rw [HN.out]; exact hlt
    have hct := countR_take hkl
    have hbd := good_snoc hkl HGD.out
    obtain ⟨b1, o1, rfl, hb1, hg1⟩ := rg_range (hr.below hbel) hkl
    have hkm := List.getElem?_eq_getElem hkl
    have hdr := List.drop_eq_getElem_cons hkl
    obtain ⟨⟨x, y⟩, hxy⟩ : ∃ p, l[k] = p := ⟨_, rfl⟩
    rw [hxy] at hg1 hkm hdr hct hbd
    have hg1 : wr.rangeAt b1 (o1 + k * 2) (#[.int .i64 x, .int .i64 y] : Array Value).toList := hg1
    clear hxy
    have n0 : (0 : Int) ≤ (k : Int) := by omega
    have n1 : (k : Int) < (n : Int) := by omega
    have n2 : ((k : Nat) : Int).toNat = k := by omega
    have hgk := good_take HGD.out hkm
    unfold maxN at hgk
    simp only [] at hgk hct hbd
    obtain ⟨C, hC⟩ : ∃ C, countR (l.take k) = C := ⟨_, rfl⟩
    rw [hC] at hct hbd
    simp only [hC]
    have HCT := Lib.hid hct
    clear hkm hdr hC hct
    have b1' : -9223372036854775808 ≤ y - x := by omega
    have b2' : y - x ≤ 72057594037927935 := by omega
    have b3' : 0 ≤ C := hbd.1
    have b4' : C ≤ x := by omega
    go_upto_region 7 with (first | (refine wpList_load_mid rfl 62 (.tmp 13) rfl b1 _ rfl ((#[.int .i64 x, .int .i64 y] : Array Value).toList) _ hg1 Try.underlying62 rfl (by rfl) ?_; rw [Array.toArray_toList]) | fail)
    refine wp_nameE _ (fun W6 hX => ?_)
    have hb6 : Below wr.heap.size wr W6 := by rw [hX]; exact Below.alloc (Below.refl _ _) (Nat.le_refl _) _
    have hszg : w.heap.size ≤ wr.heap.size := hbel.size
    have hx6 : W6.heap[wr.heap.size]? = some (.cells #[.int .i64 x, .int .i64 y] 62 (0, 0)) := by rw [hX]; exact heap_push _ _ _
    have hbel := hbel.trans (hb6.mono hbel.size)
    obtain ⟨g6, hg6⟩ : ∃ g, wr.heap.size = g := ⟨_, rfl⟩
    rw [hg6] at hx6 hszg
    simp only [hg6]
    clear hX hg1 hg6
    have c0 : W6.cell? ⟨g6, 0, none⟩ = some (.int .i64 x) := cell_heap hx6 0
    have c1 : W6.cell? ⟨g6, 1, none⟩ = some (.int .i64 y) := cell_heap hx6 1
    go_wp2
    go_roundw
    case rel => exact ⟨k + 1, by omega, by go_num, by rw [HCT.out], hbel⟩
    case measure => (simp [intOf]) <;> omega
def inR (r : Int × Int) (v : Int) : Bool := decide (r.1 ≤ v) && decide (v ≤ r.2)
theorem hasR_take {l : List (Int × Int)} {k : Nat} (hk : k < l.length) (v : Int) : hasR (l.take (k + 1)) v = (hasR (l.take k) v || inR l[k] v) := by
  rw [List.take_succ_eq_append_getElem hk, hasR_app]
  simp [hasR, inR]
theorem hasR_bad {l : List (Int × Int)} {k : Nat} (hk : k < l.length) {v : Int} (h : inR l[k] v = true) : hasR l v = true := by
  unfold hasR
  rw [List.any_eq_true]
  exact ⟨l[k], List.getElem_mem hk, h⟩
set_option maxRecDepth 100000 in
set_option maxHeartbeats 1600000 in
theorem hasClo_any (x y v : Int) (gv : Nat) (w : World) (hv : w.heap[gv]? = some (.cells #[.int .i64 v] 3 (0, 0))) :
    Calls Try.prog 35 #[.agg #[.int .i64 x, .int .i64 y], .pointer (some ⟨gv, 0, none⟩)] w fun e w' => e = .returned (.bool (inR (x, y) v)) ∧ Below w.heap.size w w' := by
  unfold inR
  have hq := heap_push w #[.int .i64 x, .int .i64 y] 62
  have hb0 : Below w.heap.size w (w.alloc (.cells #[.int .i64 x, .int .i64 y] 62)) := Below.alloc (Below.refl _ _) (Nat.le_refl _) _
  have hvl : gv < w.heap.size := (Array.getElem?_eq_some_iff.1 hv).1
  obtain ⟨p, hp⟩ : ∃ p, decide (x ≤ v) = p := ⟨_, rfl⟩
  obtain ⟨q, hq9⟩ : ∃ q, decide (v ≤ y) = q := ⟨_, rfl⟩
  simp only [hp, hq9]
  go_enter Try.func35, Try.ntmps35
  go_upto_region 1 with fail
  refine wp_nameE _ (fun W1 hX => ?_)
  have hx : W1.heap[w.heap.size]? = some (.cells #[.int .i64 x, .int .i64 y] 62 (0, 0)) := by rw [hX]; exact hq
  have hv1 : W1.heap[gv]? = some (.cells #[.int .i64 v] 3 (0, 0)) := by rw [hX]; exact cells_of hv hb0 hvl
  have hbel : Below w.heap.size w W1 := by rw [hX]; exact hb0
  clear hX hq hb0 hv
  have c0 : W1.cell? ⟨w.heap.size, 0, none⟩ = some (.int .i64 x) := cell_heap hx 0
  have c1 : W1.cell? ⟨w.heap.size, 1, none⟩ = some (.int .i64 y) := cell_heap hx 1
  have c2 : W1.cell? ⟨gv, 0, none⟩ = some (.int .i64 v) := cell_heap hv1 0
  cases p
  · go_wp2
    go_ret
    exact ⟨by first | rfl | simp, hbel⟩
  · go_wp2
    go_ret
    exact ⟨by first | rfl | simp, hbel⟩
set_option maxRecDepth 100000 in
set_option maxHeartbeats 6400000 in
theorem idxHas_any (a : Option Addr) (n cap : Nat) (l : List (Int × Int)) (v : Int) (gv : Nat) (w : World) (hr : RowAt w a (l.flatMap rgL)) (hn : l.length = n) (hm : n ≤ maxLen) (hv : w.heap[gv]? = some (.cells #[.int .i64 v] 3 (0, 0))) :
    Calls Try.prog 51 #[.slice a n cap, .func (.func 35) #[] #[.pointer (some ⟨gv, 0, none⟩)]] w fun e w' => (∃ i : Int, e = .returned (.int .i64 i) ∧ decide (0 ≤ i) = hasR l v) ∧ Below w.heap.size w w' := by
  unfold maxLen at hm
  have HN := Lib.hid hn
  have hvl : gv < w.heap.size := (Array.getElem?_eq_some_iff.1 hv).1
  obtain ⟨r, hr9⟩ : ∃ r, hasR l v = r := ⟨_, rfl⟩
  rw [hr9]
  have HR := Lib.hid hr9
  clear hr9 hn
  go_enter Try.func51, Try.ntmps51
  go_upto_region 2 with fail
  go_loopw [8] (fun i wr => ∃ k : Nat, k ≤ n ∧ i = .int .i64 k ∧ Hid (hasR (l.take k) v = false) ∧ Below w.heap.size w wr) (fun i _ => n - (intOf i).toNat)
  case atStart => exact ⟨0, Nat.zero_le _, rfl, Lib.hid rfl, Below.refl _ _⟩
  case round =>
    obtain ⟨k, hk, rfl, HA, hbel⟩ := hrel
    by_cases hlt : k < n
    rotate_left
    · have d9 : decide ((k : Int) < (n : Int)) = false := decide_eq_false (by omega)
      have d9n : decide (k < n) = false := decide_eq_false hlt
      obtain rfl : r = false := by rw [← HR.out, ← HA.out, List.take_of_length_le (by rw [HN.out]; omega)]
      go_wp2
      go_ret
      exact ⟨⟨_, rfl, by rfl⟩, hbel⟩
    have d9 : decide ((k : Int) < (n : Int)) = true := decide_eq_true (by omega)
    have d9n : decide (k < n) = true := decide_eq_true hlt
    have hkl : k < l.length := by rw [HN.out]; exact hlt
    have htk := hasR_take hkl v
    have hbd := fun h => hasR_bad hkl (v := v) h
    obtain ⟨b1, o1, rfl, hb1, hg1⟩ := rg_range (hr.below hbel) hkl
    have hkm := List.getElem?_eq_getElem hkl
    have hdr := List.drop_eq_getElem_cons hkl
    obtain ⟨⟨x, y⟩, hxy⟩ : ∃ p, l[k] = p := ⟨_, rfl⟩
    rw [hxy] at hg1 hkm hdr htk hbd
    have hg1 : wr.rangeAt b1 (o1 + k * 2) (#[.int .i64 x, .int .i64 y] : Array Value).toList := hg1
    clear hxy
    have n0 : (0 : Int) ≤ (k : Int) := by omega
    have n1 : (k : Int) < (n : Int) := by omega
    have n2 : ((k : Nat) : Int).toNat = k := by omega
    have CC := hasClo_any x y v gv wr (cells_of hv hbel hvl)
    obtain ⟨ib, hib⟩ : ∃ b, inR (x, y) v = b := ⟨_, rfl⟩
    rw [hib, HA.out] at htk
    simp only [hib] at CC hbd
    have HTK := Lib.hid htk
    have HBD := Lib.hid hbd
    clear hkm hdr htk hbd hib
    go_upto_if 16 with (first | (refine wpList_load_mid rfl 62 (.tmp 14) rfl b1 _ rfl ((#[.int .i64 x, .int .i64 y] : Array Value).toList) _ hg1 Try.underlying62 rfl (by rfl) ?_; rw [Array.toArray_toList]) | (go_at_call 35; refine CC.mono ?_; rintro e w2 ⟨rfl, hb⟩))
    have hbel := hbel.trans (hb.mono hbel.size)
    cases ib
    · go_wp2
      go_roundw
      case rel => exact ⟨k + 1, by omega, by go_num, Lib.hid HTK.out, hbel⟩
      case measure => (simp [intOf]) <;> omega
    · obtain rfl : r = true := by rw [← HR.out]; exact HBD.out rfl
      go_wp2
      go_ret
      exact ⟨⟨(k : Int), rfl, by first | omega | exact decide_eq_true (by omega)⟩, hbel⟩
set_option maxRecDepth 100000 in
set_option maxHeartbeats 1600000 in
theorem conHas_any (a : Option Addr) (n cap : Nat) (l : List (Int × Int)) (v : Int) (gv : Nat) (w : World) (hr : RowAt w a (l.flatMap rgL)) (hn : l.length = n) (hm : n ≤ maxLen) (hv : w.heap[gv]? = some (.cells #[.int .i64 v] 3 (0, 0))) :
    Calls Try.prog 34 #[.slice a n cap, .func (.func 35) #[] #[.pointer (some ⟨gv, 0, none⟩)]] w fun e w' => e = .returned (.bool (hasR l v)) ∧ Below w.heap.size w w' := by
  have CC := idxHas_any a n cap l v gv w hr hn hm hv
  obtain ⟨r, hr9⟩ : ∃ r, hasR l v = r := ⟨_, rfl⟩
  simp only [hr9] at CC ⊢
  clear hr9
  go_enter Try.func34, Try.ntmps34
  go_wp2_with (go_at_call 51; refine CC.mono ?_; rintro e w2 ⟨⟨i, rfl, hi⟩, hb⟩)
  go_ret
  exact ⟨by first | rfl | simp [hi], hb⟩
set_option maxRecDepth 100000 in
set_option maxHeartbeats 1600000 in
theorem has_any (a : Option Addr) (n cap : Nat) (l : List (Int × Int)) (v : Int) (w : World) (hr : RowAt w a (l.flatMap rgL)) (hn : l.length = n) (hm : n ≤ maxLen) :
    Calls Try.prog 11 #[.slice a n cap, .int .i64 v] w fun e w' => e = .returned (.bool (hasR l v)) ∧ Below w.heap.size w w' := by
  have hq := heap_push w #[.int .i64 v] 3
  have hb0 : Below w.heap.size w (w.alloc (.cells #[.int .i64 v] 3)) := Below.alloc (Below.refl _ _) (Nat.le_refl _) _
  have CC := conHas_any a n cap l v w.heap.size _ (hr.below hb0) hn hm hq
  go_enter Try.func11, Try.ntmps11
  go_wp2_with (go_at_call 34; refine CC.mono ?_; rintro e w2 ⟨rfl, hb⟩)
  go_ret
  exact ⟨rfl, hb0.trans (hb.mono hb0.size)⟩
end Go.Proofs.Ytdlngadcgcgenaa
