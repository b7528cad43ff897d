/- The document's trees: Half, Node, Top, Way, Deep. -/
import Derived.Test.YtpledhipdiephaaDoorSt3
import Derived.Test.YtpledhipdiephaaDoorT8
import Derived.Test.YtpledhipdiephaaDoorRefSum
import Derived.Test.YtpledhipdiephaaDoorT6
import Derived.Deep.Cut
import Derived.WalkKit
import Derived.ProofKit
import Derived.Handy
import Derived.Below
import Derived.Lib.Hide
import Derived.IntWalk
import Derived.Outline
import Derived.WalkLawsBesides
import Derived.WalkSpells
namespace Go.Proofs.YtpledhipdiephaaDoor
open Go.RowKit
attribute [local go_sem] strV
set_option linter.unusedVariables false

theorem halfN_of {n j : Nat} (h1 : 2 ^ j < n) (h2 : n ≤ 2 ^ (j + 1)) : halfN n = 2 ^ j := by
  unfold halfN
  congr 1
  have h0 : n - 1 ≠ 0 := by have := Nat.two_pow_pos j; omega
  have a := (Nat.le_log2 h0).2 (show 2 ^ j ≤ n - 1 by omega)
  have b := (Nat.log2_lt h0).2 (show n - 1 < 2 ^ (j + 1) by omega)
  omega
set_option maxRecDepth 100000 in
set_option maxHeartbeats 4000000 in
theorem refHalf_any (n : Int) (w : World) :
    Calls Tryd.prog 90 #[.int .i64 n] w fun e w' => e = .returned (.int .i64 (halfI n)) ∧ Below w.heap.size w w' := by
  by_cases c1 : n < 2
  · have d1 : decide (n < 2) = true := decide_eq_true c1
    rw [show halfI n = 0 by unfold halfI; rw [if_pos (.inl c1)]]
    go_enter Tryd.func90, Tryd.ntmps90
    go_wp2
    go_ret
    exact ⟨rfl, Below.refl _ _⟩
  have d1 : decide (n < 2) = false := decide_eq_false c1
  by_cases c2 : 1073741824 < n
  · have d2 : decide (1073741824 < n) = true := decide_eq_true c2
    rw [show halfI n = 0 by unfold halfI; rw [if_pos (.inr c2)]]
    go_enter Tryd.func90, Tryd.ntmps90
    go_wp2
    go_ret
    exact ⟨rfl, Below.refl _ _⟩
  have d2 : decide (1073741824 < n) = false := decide_eq_false c2
  obtain ⟨m, rfl⟩ : ∃ m : Nat, n = m := ⟨n.toNat, by omega⟩
  rw [show halfI (m : Int) = (halfN m : Nat) by unfold halfI; rw [if_neg (by omega), Int.toNat_natCast]]
  obtain ⟨H, hH⟩ : ∃ H, halfN m = H := ⟨_, rfl⟩
  rw [hH]
  have HH := Lib.hid hH
  clear hH
  go_enter Tryd.func90, Tryd.ntmps90
  go_upto_region 4 with fail
  go_loopw [3] (fun a wr => ∃ h j : Nat, Hid (h = 2 ^ j) ∧ 1 ≤ h ∧ h < m ∧ a = .int .i64 h ∧ wr = w) (fun a _ => m - (intOf a).toNat)
  case atStart => exact ⟨1, 0, Lib.hid rfl, by omega, by omega, rfl, rfl⟩
  case round =>
    obtain ⟨h, j, HJ, h1, h2, rfl, rfl⟩ := hrel
    have n1 : (1 : Int) ≤ (h : Int) := by omega
    have n2 : (h : Int) ≤ 1073741824 := by omega
    by_cases hlt : 2 * h < m
    · have e1 : decide (2 * (h : Int) < (m : Int)) = true := decide_eq_true (by omega)
      have e1n : decide (2 * h < m) = true := decide_eq_true hlt
      go_wp2
      go_roundw
      case rel => exact ⟨2 * h, j + 1, Lib.hid (by rw [Nat.pow_succ, ← HJ.out]; omega), by omega, hlt, by go_num, by first | rfl | trivial⟩
      case measure => (simp [intOf]) <;> omega
    · have e1 : decide (2 * (h : Int) < (m : Int)) = false := decide_eq_false (by omega)
      have e1n : decide (2 * h < m) = false := decide_eq_false hlt
      have hfin : H = h := by
        rw [← HH.out, HJ.out]
        exact halfN_of (by rw [← HJ.out]; exact h2) (by rw [Nat.pow_succ, ← HJ.out]; omega)
      subst hfin
      go_wp2
      go_ret
      exact ⟨rfl, Below.refl _ _⟩
theorem refHalfN_any (n : Nat) (w : World) (h2 : 2 ≤ n) (h3 : n ≤ 1073741824) :
    Calls Tryd.prog 90 #[.int .i64 n] w fun e w' => e = .returned (.int .i64 (halfN n : Nat)) ∧ Below w.heap.size w w' := by
  have := refHalf_any (n : Int) w
  rw [show halfI (n : Int) = (halfN n : Nat) by unfold halfI; rw [if_neg (by omega), Int.toNat_natCast]] at this
  exact this
set_option maxRecDepth 100000 in
set_option maxHeartbeats 4000000 in
theorem refNode_any (q r : List UInt8) (w : World) (hq : q.length = 32) (hr : r.length = 32) :
    Calls Tryd.prog 91 #[.agg (hrow q), .agg (hrow r)] w fun e w' => e = .returned (.agg (hrow (nodeF q r))) ∧ Below w.heap.size w w' := by
  have zq : (hrow q).size = 32 := by rw [hrow_size]; exact hq
  have zr : (hrow r).size = 32 := by rw [hrow_size]; exact hr
  have g0 := al3_0 w (.cells (hrow q) 35) (.cells (hrow r) 35) (.cells #[Value.int .u8 0, Value.int .u8 0, Value.int .u8 0, Value.int .u8 0, Value.int .u8 0, Value.int .u8 0, Value.int .u8 0, Value.int .u8 0, Value.int .u8 0, Value.int .u8 0, Value.int .u8 0, Value.int .u8 0, Value.int .u8 0, Value.int .u8 0, Value.int .u8 0, Value.int .u8 0, Value.int .u8 0, Value.int .u8 0, Value.int .u8 0, Value.int .u8 0, Value.int .u8 0, Value.int .u8 0, Value.int .u8 0, Value.int .u8 0, Value.int .u8 0, Value.int .u8 0, Value.int .u8 0, Value.int .u8 0, Value.int .u8 0, Value.int .u8 0, Value.int .u8 0, Value.int .u8 0] 35)
  have g1 := al3_1 w (.cells (hrow q) 35) (.cells (hrow r) 35) (.cells #[Value.int .u8 0, Value.int .u8 0, Value.int .u8 0, Value.int .u8 0, Value.int .u8 0, Value.int .u8 0, Value.int .u8 0, Value.int .u8 0, Value.int .u8 0, Value.int .u8 0, Value.int .u8 0, Value.int .u8 0, Value.int .u8 0, Value.int .u8 0, Value.int .u8 0, Value.int .u8 0, Value.int .u8 0, Value.int .u8 0, Value.int .u8 0, Value.int .u8 0, Value.int .u8 0, Value.int .u8 0, Value.int .u8 0, Value.int .u8 0, Value.int .u8 0, Value.int .u8 0, Value.int .u8 0, Value.int .u8 0, Value.int .u8 0, Value.int .u8 0, Value.int .u8 0, Value.int .u8 0] 35)
  have g2 := al3_2 w (.cells (hrow q) 35) (.cells (hrow r) 35) (.cells #[Value.int .u8 0, Value.int .u8 0, Value.int .u8 0, Value.int .u8 0, Value.int .u8 0, Value.int .u8 0, Value.int .u8 0, Value.int .u8 0, Value.int .u8 0, Value.int .u8 0, Value.int .u8 0, Value.int .u8 0, Value.int .u8 0, Value.int .u8 0, Value.int .u8 0, Value.int .u8 0, Value.int .u8 0, Value.int .u8 0, Value.int .u8 0, Value.int .u8 0, Value.int .u8 0, Value.int .u8 0, Value.int .u8 0, Value.int .u8 0, Value.int .u8 0, Value.int .u8 0, Value.int .u8 0, Value.int .u8 0, Value.int .u8 0, Value.int .u8 0, Value.int .u8 0, Value.int .u8 0] 35)
  have hbA := al3_below w (.cells (hrow q) 35) (.cells (hrow r) 35) (.cells #[Value.int .u8 0, Value.int .u8 0, Value.int .u8 0, Value.int .u8 0, Value.int .u8 0, Value.int .u8 0, Value.int .u8 0, Value.int .u8 0, Value.int .u8 0, Value.int .u8 0, Value.int .u8 0, Value.int .u8 0, Value.int .u8 0, Value.int .u8 0, Value.int .u8 0, Value.int .u8 0, Value.int .u8 0, Value.int .u8 0, Value.int .u8 0, Value.int .u8 0, Value.int .u8 0, Value.int .u8 0, Value.int .u8 0, Value.int .u8 0, Value.int .u8 0, Value.int .u8 0, Value.int .u8 0, Value.int .u8 0, Value.int .u8 0, Value.int .u8 0, Value.int .u8 0, Value.int .u8 0] 35)
  go_enter Tryd.func91, Tryd.ntmps91
  go_upto_region 1 with fail
  refine wp_nameE _ (fun W1 hX => ?_)
  have y0 : W1.heap[w.heap.size]? = some (.cells (hrow q) 35 (0, 0)) := by rw [hX]; exact g0
  have y1 : W1.heap[w.heap.size + 1]? = some (.cells (hrow r) 35 (0, 0)) := by rw [hX]; exact g1
  have y9 : W1.heap[w.heap.size + 2]? = some (.cells #[Value.int .u8 0, Value.int .u8 0, Value.int .u8 0, Value.int .u8 0, Value.int .u8 0, Value.int .u8 0, Value.int .u8 0, Value.int .u8 0, Value.int .u8 0, Value.int .u8 0, Value.int .u8 0, Value.int .u8 0, Value.int .u8 0, Value.int .u8 0, Value.int .u8 0, Value.int .u8 0, Value.int .u8 0, Value.int .u8 0, Value.int .u8 0, Value.int .u8 0, Value.int .u8 0, Value.int .u8 0, Value.int .u8 0, Value.int .u8 0, Value.int .u8 0, Value.int .u8 0, Value.int .u8 0, Value.int .u8 0, Value.int .u8 0, Value.int .u8 0, Value.int .u8 0, Value.int .u8 0] 35 (0, 0)) := by rw [hX]; exact g2
  have hbel : Below w.heap.size w W1 := by rw [hX]; exact hbA
  clear hX g0 g1 g2 hbA
  have hy9 : w.heap.size + 2 < W1.heap.size := (Array.getElem?_eq_some_iff.1 y9).1
  obtain ⟨X, hX⟩ : ∃ X : ByteArray, (⟨q.toArray⟩ : ByteArray) = X := ⟨_, rfl⟩
  obtain ⟨Y, hY⟩ : ∃ Y : ByteArray, (⟨r.toArray⟩ : ByteArray) = Y := ⟨_, rfl⟩
  have hXs : X.size = 32 := by rw [← hX]; exact hq
  have hYs : Y.size = 32 := by rw [← hY]; exact hr
  have h1s : (⟨#[1]⟩ : ByteArray).size = 1 := rfl
  have hcat1 : ¬ 9223372036854775807 < (⟨#[1]⟩ : ByteArray).size + X.size := by omega
  have hcat2 : ¬ 9223372036854775807 < ((⟨#[1]⟩ : ByteArray) ++ X).size + Y.size := by rw [ByteArray.size_append]; omega
  have hcat3 : ¬ 9223372036854775807 < (⟨#[1]⟩ : ByteArray).size + X.size + Y.size := by omega
  have hcat4 : ¬ 9223372036854775807 < 1 + X.size + Y.size := by omega
  have hcat5 : ¬ 9223372036854775807 < 1 + X.size := by omega
  clear h1s
  refine wp_region_facts_tail 7 rfl [Fact.eq (.agg (hrow q)), Fact.eq (.string X), Fact.eq (.string ((⟨#[1]⟩ : ByteArray) ++ X)), Fact.eq (.agg (hrow r)), Fact.eq (.string Y), Fact.eq (.string (((⟨#[1]⟩ : ByteArray) ++ X) ++ Y)), Fact.eq (.agg (hrow (nodeF q r)))] (by kernel_rfl) (by kernel_rfl) (by kernel_rfl) (by kernel_rfl) (by kernel_rfl) (fun x => by simp only [List.take_succ_cons, List.take_zero, fillFrom, Act.put, List.setIfInBounds_toArray, List.set_cons_succ, List.set_cons_zero]; rfl) ?_ ?_
  · refine ⟨?_, ?_, ?_, ?_, ?_, ?_, ?_, trivial⟩
    · intro x w' hbw hd
      clear hd
      have hgc := cells_of y0 hbw (by omega)
      go_wp2_with (first | (refine wpList_loadRow rfl (.tmp 2) 35 rfl Tryd.underlying35 (by rw [zq]; kernel_rfl) rfl hgc ?_))
      exact frPost_mk rfl (by repeat (first | assumption | exact Below.refl _ _ | refine bch ?_ (by assumption) | refine Below.alloc ?_ (by simp) _)) rfl
    · intro x w' hbw hd
      have d0 : x 0 = .agg (hrow q) := hd 0 rfl
      clear hd
      have CC := refText_any w' q hq
      rw [hX] at CC
      go_wp2_with (first | (go_at_call 89; refine (CC).mono ?_; rintro e wx ⟨rfl, hbx⟩))
      exact frPost_mk rfl (by repeat (first | assumption | exact Below.refl _ _ | refine bch ?_ (by assumption) | refine Below.alloc ?_ (by simp) _)) rfl
    · intro x w' hbw hd
      have d1 : x 1 = .string X := hd 1 rfl
      clear hd
      go_wp2_with fail
      exact frPost_mk rfl (by repeat (first | assumption | exact Below.refl _ _ | refine bch ?_ (by assumption) | refine Below.alloc ?_ (by simp) _)) rfl
    · intro x w' hbw hd
      clear hd
      have hgc := cells_of y1 hbw (by omega)
      go_wp2_with (first | (refine wpList_loadRow rfl (.tmp 3) 35 rfl Tryd.underlying35 (by rw [zr]; kernel_rfl) rfl hgc ?_))
      exact frPost_mk rfl (by repeat (first | assumption | exact Below.refl _ _ | refine bch ?_ (by assumption) | refine Below.alloc ?_ (by simp) _)) rfl
    · intro x w' hbw hd
      have d3 : x 3 = .agg (hrow r) := hd 3 rfl
      clear hd
      have CC := refText_any w' r hr
      rw [hY] at CC
      go_wp2_with (first | (go_at_call 89; refine (CC).mono ?_; rintro e wx ⟨rfl, hbx⟩))
      exact frPost_mk rfl (by repeat (first | assumption | exact Below.refl _ _ | refine bch ?_ (by assumption) | refine Below.alloc ?_ (by simp) _)) rfl
    · intro x w' hbw hd
      have d2 : x 2 = .string ((⟨#[1]⟩ : ByteArray) ++ X) := hd 2 rfl
      have d4 : x 4 = .string Y := hd 4 rfl
      clear hd
      go_wp2_with fail
      exact frPost_mk rfl (by repeat (first | assumption | exact Below.refl _ _ | refine bch ?_ (by assumption) | refine Below.alloc ?_ (by simp) _)) rfl
    · intro x w' hbw hd
      have d5 : x 5 = .string (((⟨#[1]⟩ : ByteArray) ++ X) ++ Y) := hd 5 rfl
      clear hd
      have CC := refSum_any (((⟨#[1]⟩ : ByteArray) ++ X) ++ Y) w' (by rw [ByteArray.size_append, ByteArray.size_append, show (⟨#[1]⟩ : ByteArray).size = 1 from rfl]; omega)
      rw [show (((⟨#[1]⟩ : ByteArray) ++ X) ++ Y : ByteArray).data.toList = [1] ++ q ++ r by rw [← hX, ← hY]; simp, show shaF ([1] ++ q ++ r) = nodeF q r from rfl] at CC
      go_wp2_with (first | (go_at_call 87; refine (CC).mono ?_; rintro e wx ⟨rfl, hbx⟩))
      exact frPost_mk rfl (by repeat (first | assumption | exact Below.refl _ _ | refine bch ?_ (by assumption) | refine Below.alloc ?_ (by simp) _)) rfl
  · intro x w' hbw hall
    have hf : x 6 = .agg (hrow (nodeF q r)) := hall 6 (by decide)
    clear hall
    simp only [hf, List.drop_succ_cons, List.drop_zero]
    have hl : (nodeF q r).length = 32 := nodeF_len _ _
    have hsz : (hrow (nodeF q r)).size = 32 := by rw [hrow_size]; exact hl
    have hone := hrow_one (nodeF q r)
    have y9 := cells_of y9 hbw hy9
    have hbel := hbel.trans (hbw.mono hbel.size)
    go_wp2_with (refine wpList_storeRowTo rfl (.tmp 4) (.tmp 11) 35 rfl (by rw [hsz]; kernel_rfl) rfl rfl y9 (by rw [hsz]; rfl) hone ?_)
    refine bodyPost_ret (v := .agg (hrow (nodeF q r))) ?_ rfl ?_
    · simp [results, Tryd.results91, asAddr]
      exact run_loadVar_row _ _ 35 35 _ (0, 0) _ (setRow_heap _ _ _ _ _ _ y9) Tryd.underlying35 rfl (by rw [hsz]; kernel_rfl)
    exact ⟨rfl, below_setRow hbel (by omega) _⟩
set_option maxRecDepth 100000 in
set_option maxHeartbeats 6400000 in
theorem refTop_any : ∀ (m : Nat) (l : List H32) (a : Option Addr) (cap : Nat) (w : World), l.length = m → m ≤ 1000000 → m ≤ cap → cap ≤ maxLen → RowAt w a (l.flatMap H32.cells) → True →
    Calls Tryd.prog 62 #[.slice a m cap] w fun e w' => e = .returned (.agg (hrow (topH l).1)) ∧ Below w.heap.size w w' := by
  intro m
  induction m using Nat.strongRecOn with
  | _ m ih =>
  intro l a cap w hl hm hcap hcm hr hW
  have g9 := heap_push w #[Value.int .u8 0, Value.int .u8 0, Value.int .u8 0, Value.int .u8 0, Value.int .u8 0, Value.int .u8 0, Value.int .u8 0, Value.int .u8 0, Value.int .u8 0, Value.int .u8 0, Value.int .u8 0, Value.int .u8 0, Value.int .u8 0, Value.int .u8 0, Value.int .u8 0, Value.int .u8 0, Value.int .u8 0, Value.int .u8 0, Value.int .u8 0, Value.int .u8 0, Value.int .u8 0, Value.int .u8 0, Value.int .u8 0, Value.int .u8 0, Value.int .u8 0, Value.int .u8 0, Value.int .u8 0, Value.int .u8 0, Value.int .u8 0, Value.int .u8 0, Value.int .u8 0, Value.int .u8 0] 35
  have hbA : Below w.heap.size w (w.alloc (.cells #[Value.int .u8 0, Value.int .u8 0, Value.int .u8 0, Value.int .u8 0, Value.int .u8 0, Value.int .u8 0, Value.int .u8 0, Value.int .u8 0, Value.int .u8 0, Value.int .u8 0, Value.int .u8 0, Value.int .u8 0, Value.int .u8 0, Value.int .u8 0, Value.int .u8 0, Value.int .u8 0, Value.int .u8 0, Value.int .u8 0, Value.int .u8 0, Value.int .u8 0, Value.int .u8 0, Value.int .u8 0, Value.int .u8 0, Value.int .u8 0, Value.int .u8 0, Value.int .u8 0, Value.int .u8 0, Value.int .u8 0, Value.int .u8 0, Value.int .u8 0, Value.int .u8 0, Value.int .u8 0] 35)) := Below.alloc (Below.refl _ _) (Nat.le_refl _) _
  rcases Nat.lt_or_ge m 2 with hm2 | hm2
  · rcases Nat.eq_zero_or_pos m with h0 | h0
    · obtain rfl := h0
      obtain rfl := List.eq_nil_of_length_eq_zero hl
      have HT : Hid ((topH []).1 = z32) := Lib.hid (by rw [topH_nil]; rfl)
      have hz : (hrow z32).size = 32 := by rfl
      have hzone := hrow_one z32
      go_enter Tryd.func62, Tryd.ntmps62
      go_upto_region 1 with fail
      refine wp_nameE _ (fun W1 hX => ?_)
      have y9 : W1.heap[w.heap.size]? = some (.cells #[Value.int .u8 0, Value.int .u8 0, Value.int .u8 0, Value.int .u8 0, Value.int .u8 0, Value.int .u8 0, Value.int .u8 0, Value.int .u8 0, Value.int .u8 0, Value.int .u8 0, Value.int .u8 0, Value.int .u8 0, Value.int .u8 0, Value.int .u8 0, Value.int .u8 0, Value.int .u8 0, Value.int .u8 0, Value.int .u8 0, Value.int .u8 0, Value.int .u8 0, Value.int .u8 0, Value.int .u8 0, Value.int .u8 0, Value.int .u8 0, Value.int .u8 0, Value.int .u8 0, Value.int .u8 0, Value.int .u8 0, Value.int .u8 0, Value.int .u8 0, Value.int .u8 0, Value.int .u8 0] 35 (0, 0)) := by rw [hX]; exact g9
      have hbel : Below w.heap.size w W1 := by rw [hX]; exact hbA
      clear hX g9 hbA
      have hy9 : w.heap.size < W1.heap.size := (Array.getElem?_eq_some_iff.1 y9).1
      go_wp2_with (refine wpList_storeRowTo (Z := hrow z32) rfl (.tmp 2) (.tmp 7) 35 rfl (by rw [hz]; kernel_rfl) rfl (by rfl) y9 (by rw [hz]; rfl) hzone ?_)
      refine bodyPost_ret (v := .agg (hrow z32)) ?_ rfl ?_
      · simp [results, Tryd.results62, asAddr]
        exact run_loadVar_row _ _ 35 35 _ (0, 0) _ (setRow_heap _ _ _ _ _ _ y9) Tryd.underlying35 rfl (by rw [hz]; kernel_rfl)
      exact ⟨by rw [HT.out], below_setRow hbel (Nat.le_refl _) _⟩
    · obtain rfl : m = 1 := by omega
      obtain ⟨q, rfl⟩ := List.length_eq_one_iff.1 hl
      have HT : Hid ((topH [q]).1 = q.1) := Lib.hid (by rw [topH_one])
      have hq : (hrow q.1).size = 32 := by rw [hrow_size]; exact q.2
      have hqone := hrow_one q.1
      have hrB := hr.below hbA
      obtain ⟨b, off, rfl, hb, hrg⟩ := hs_at hrB (k := 0) (by simp)
      simp only [Nat.zero_mul, Nat.add_zero, List.getElem_cons_zero] at hrg
      have hqi : (Tryd.prog.info? 35).map (·.size) = some q.cells.length := by rw [H32.cells_len]; kernel_rfl
      go_enter Tryd.func62, Tryd.ntmps62
      go_upto_region 1 with fail
      refine wp_nameE _ (fun W1 hX => ?_)
      have y9 : W1.heap[w.heap.size]? = some (.cells #[Value.int .u8 0, Value.int .u8 0, Value.int .u8 0, Value.int .u8 0, Value.int .u8 0, Value.int .u8 0, Value.int .u8 0, Value.int .u8 0, Value.int .u8 0, Value.int .u8 0, Value.int .u8 0, Value.int .u8 0, Value.int .u8 0, Value.int .u8 0, Value.int .u8 0, Value.int .u8 0, Value.int .u8 0, Value.int .u8 0, Value.int .u8 0, Value.int .u8 0, Value.int .u8 0, Value.int .u8 0, Value.int .u8 0, Value.int .u8 0, Value.int .u8 0, Value.int .u8 0, Value.int .u8 0, Value.int .u8 0, Value.int .u8 0, Value.int .u8 0, Value.int .u8 0, Value.int .u8 0] 35 (0, 0)) := by rw [hX]; exact g9
      have hrg : W1.rangeAt b off q.cells := by rw [hX]; exact hrg
      have hbel : Below w.heap.size w W1 := by rw [hX]; exact hbA
      clear hX g9 hbA
      have hy9 : w.heap.size < W1.heap.size := (Array.getElem?_eq_some_iff.1 y9).1
      go_wp2_with (first | (refine wpList_load_mid rfl 35 (.tmp 12) rfl b off rfl q.cells _ hrg Tryd.underlying35 rfl hqi ?_; rw [H32.row]) | (refine wpList_storeRowTo (Z := hrow q.1) rfl (.tmp 2) (.tmp 13) 35 rfl (by rw [hq]; kernel_rfl) rfl (by rfl) y9 (by rw [hq]; rfl) hqone ?_))
      refine bodyPost_ret (v := .agg (hrow q.1)) ?_ rfl ?_
      · simp [results, Tryd.results62, asAddr]
        exact run_loadVar_row _ _ 35 35 _ (0, 0) _ (setRow_heap _ _ _ _ _ _ y9) Tryd.underlying35 rfl (by rw [hq]; kernel_rfl)
      exact ⟨by rw [HT.out], below_setRow hbel (Nat.le_refl _) _⟩
  · have d0 : ((m : Int) == 0) = false := beq_eq_false_iff_ne.2 (by omega)
    have d1 : ((m : Int) == 1) = false := beq_eq_false_iff_ne.2 (by omega)
    have hr1 := hs_take hr (halfN l.length)
    obtain ⟨b, off, rfl, hb, _⟩ := hs_at hr (k := 0) (by omega)
    have hr2 := hs_drop hr (halfN l.length)
    have HT := topH_two (l := l) (by omega)
    have CH := fun W : World => refHalfN_any m W hm2 (by omega)
    have hlt := halfN_lt hm2
    have hpos := halfN_pos m
    rw [hl] at hr1 hr2 HT
    have IH1 := fun W => ih (halfN m) hlt (l.take (halfN m)) (some ⟨b, off, none⟩) cap W (by rw [List.length_take]; omega) (by omega) (by omega) hcm
    have IH2 := fun W => ih (m - halfN m) (by omega) (l.drop (halfN m)) (some ⟨b, off + halfN m * 32, none⟩) (cap - halfN m) W (by rw [List.length_drop]; omega) (by omega) (by omega) (by omega)
    obtain ⟨h, hh⟩ : ∃ h, halfN m = h := ⟨_, rfl⟩
    simp only [hh] at hr1 hr2 HT CH hlt hpos IH1 IH2
    obtain ⟨T1, hT1⟩ : ∃ T, topH (l.take h) = T := ⟨_, rfl⟩
    obtain ⟨T2, hT2⟩ : ∃ T, topH (l.drop h) = T := ⟨_, rfl⟩
    simp only [hT1] at HT IH1
    simp only [hT2] at HT IH2
    have HT : Hid ((topH l).1 = nodeF T1.1 T2.1) := Lib.hid (by rw [HT]; rfl)
    clear hh hT1 hT2 ih
    have n1 : (0 : Int) ≤ (h : Int) := by omega
    have n2 : (h : Int) ≤ (cap : Int) := by omega
    have n3 : (h : Int) ≤ (m : Int) := by omega
    have n4 : (m : Int) ≤ (cap : Int) := by omega
    have n5 : ((h : Nat) : Int).toNat = h := by omega
    have n6 : h ≤ cap := by omega
    have n7 : h ≤ m := by omega
    have hr1 := hr1.below hbA
    have hr2 := hr2.below hbA
    have hW := trivial
    go_enter Tryd.func62, Tryd.ntmps62
    go_upto_region 1 with fail
    refine wp_nameE _ (fun W1 hX => ?_)
    have y9 : W1.heap[w.heap.size]? = some (.cells #[Value.int .u8 0, Value.int .u8 0, Value.int .u8 0, Value.int .u8 0, Value.int .u8 0, Value.int .u8 0, Value.int .u8 0, Value.int .u8 0, Value.int .u8 0, Value.int .u8 0, Value.int .u8 0, Value.int .u8 0, Value.int .u8 0, Value.int .u8 0, Value.int .u8 0, Value.int .u8 0, Value.int .u8 0, Value.int .u8 0, Value.int .u8 0, Value.int .u8 0, Value.int .u8 0, Value.int .u8 0, Value.int .u8 0, Value.int .u8 0, Value.int .u8 0, Value.int .u8 0, Value.int .u8 0, Value.int .u8 0, Value.int .u8 0, Value.int .u8 0, Value.int .u8 0, Value.int .u8 0] 35 (0, 0)) := by rw [hX]; exact g9
    have hr1 : RowAt W1 (some ⟨b, off, none⟩) ((l.take h).flatMap H32.cells) := by rw [hX]; exact hr1
    have hr2 : RowAt W1 (some ⟨b, off + h * 32, none⟩) ((l.drop h).flatMap H32.cells) := by rw [hX]; exact hr2
    have hW : True := trivial
    have hbel : Below w.heap.size w W1 := by rw [hX]; exact hbA
    clear hX g9 hbA
    have hy9 : w.heap.size < W1.heap.size := (Array.getElem?_eq_some_iff.1 y9).1
    go_upto_region 6 with (go_at_call 90; refine (CH _).mono ?_; rintro e w2 ⟨rfl, hb2⟩)
    have y9 := cells_of y9 hb2 hy9
    have hbel := hbel.trans (hb2.mono hbel.size)
    have hr1 := hr1.below hb2
    have hr2 := hr2.below hb2
    have hW := trivial
    have hy9 : w.heap.size < w2.heap.size := (Array.getElem?_eq_some_iff.1 y9).1
    clear hb2 CH
    refine wp_region_facts_tail 9 rfl [Fact.eq (.slice (some ⟨b, off, none⟩) m cap), Fact.eq (.int .i64 h), Fact.eq (.slice (some ⟨b, off, none⟩) h cap), Fact.eq (.agg (hrow T1.1)), Fact.eq (.slice (some ⟨b, off, none⟩) m cap), Fact.eq (.int .i64 h), Fact.eq (.slice (some ⟨b, off + h * 32, none⟩) (m - h) (cap - h)), Fact.eq (.agg (hrow T2.1)), Fact.eq (.agg (hrow (nodeF T1.1 T2.1)))] (by kernel_rfl) (by kernel_rfl) (by kernel_rfl) (by kernel_rfl) (by kernel_rfl) (fun x => by simp only [List.take_succ_cons, List.take_zero, fillFrom, Act.put, List.setIfInBounds_toArray, List.set_cons_succ, List.set_cons_zero]; rfl) ?_ ?_
    · refine ⟨?_, ?_, ?_, ?_, ?_, ?_, ?_, ?_, ?_, trivial⟩
      · intro x w' hbw hd
        clear hd
        go_wp2_with fail
        exact frPost_mk rfl (by repeat (first | assumption | exact Below.refl _ _ | refine bch ?_ (by assumption) | refine Below.alloc ?_ (by simp) _)) rfl
      · intro x w' hbw hd
        clear hd
        go_wp2_with fail
        exact frPost_mk rfl (by repeat (first | assumption | exact Below.refl _ _ | refine bch ?_ (by assumption) | refine Below.alloc ?_ (by simp) _)) rfl
      · intro x w' hbw hd
        have d0 : x 0 = .slice (some ⟨b, off, none⟩) m cap := hd 0 rfl
        have d1 : x 1 = .int .i64 h := hd 1 rfl
        clear hd
        go_wp2_with fail
        exact frPost_mk rfl (by repeat (first | assumption | exact Below.refl _ _ | refine bch ?_ (by assumption) | refine Below.alloc ?_ (by simp) _)) rfl
      · intro x w' hbw hd
        have d2 : x 2 = .slice (some ⟨b, off, none⟩) h cap := hd 2 rfl
        clear hd
        have CC := IH1 w' (hr1.below hbw) trivial
        go_wp2_with (first | (go_at_call 62; refine (CC).mono ?_; rintro e wx ⟨rfl, hbx⟩))
        exact frPost_mk rfl (by repeat (first | assumption | exact Below.refl _ _ | refine bch ?_ (by assumption) | refine Below.alloc ?_ (by simp) _)) rfl
      · intro x w' hbw hd
        clear hd
        go_wp2_with fail
        exact frPost_mk rfl (by repeat (first | assumption | exact Below.refl _ _ | refine bch ?_ (by assumption) | refine Below.alloc ?_ (by simp) _)) rfl
      · intro x w' hbw hd
        clear hd
        go_wp2_with fail
        exact frPost_mk rfl (by repeat (first | assumption | exact Below.refl _ _ | refine bch ?_ (by assumption) | refine Below.alloc ?_ (by simp) _)) rfl
      · intro x w' hbw hd
        have d4 : x 4 = .slice (some ⟨b, off, none⟩) m cap := hd 4 rfl
        have d5 : x 5 = .int .i64 h := hd 5 rfl
        clear hd
        go_wp2_with fail
        exact frPost_mk rfl (by repeat (first | assumption | exact Below.refl _ _ | refine bch ?_ (by assumption) | refine Below.alloc ?_ (by simp) _)) rfl
      · intro x w' hbw hd
        have d6 : x 6 = .slice (some ⟨b, off + h * 32, none⟩) (m - h) (cap - h) := hd 6 rfl
        clear hd
        have CC := IH2 w' (hr2.below hbw) trivial
        go_wp2_with (first | (go_at_call 62; refine (CC).mono ?_; rintro e wx ⟨rfl, hbx⟩))
        exact frPost_mk rfl (by repeat (first | assumption | exact Below.refl _ _ | refine bch ?_ (by assumption) | refine Below.alloc ?_ (by simp) _)) rfl
      · intro x w' hbw hd
        have d3 : x 3 = .agg (hrow T1.1) := hd 3 rfl
        have d7 : x 7 = .agg (hrow T2.1) := hd 7 rfl
        clear hd
        have CC := refNode_any T1.1 T2.1 w' T1.2 T2.2
        go_wp2_with (first | (go_at_call 91; refine (CC).mono ?_; rintro e wx ⟨rfl, hbx⟩))
        exact frPost_mk rfl (by repeat (first | assumption | exact Below.refl _ _ | refine bch ?_ (by assumption) | refine Below.alloc ?_ (by simp) _)) rfl
    · intro x w' hbw hall
      have hf : x 8 = .agg (hrow (nodeF T1.1 T2.1)) := hall 8 (by decide)
      clear hall
      simp only [hf, List.drop_succ_cons, List.drop_zero]
      have hl := nodeF_len T1.1 T2.1
      have hsz : (hrow (nodeF T1.1 T2.1)).size = 32 := by rw [hrow_size]; exact hl
      have hone := hrow_one (nodeF T1.1 T2.1)
      have y9 := cells_of y9 hbw hy9
      have hbel := hbel.trans (hbw.mono hbel.size)
      go_wp2_with (refine wpList_storeRowTo rfl (.tmp 2) (.tmp 25) 35 rfl (by rw [hsz]; kernel_rfl) rfl rfl y9 (by rw [hsz]; rfl) hone ?_)
      refine bodyPost_ret (v := .agg (hrow (nodeF T1.1 T2.1))) ?_ rfl ?_
      · simp [results, Tryd.results62, asAddr]
        exact run_loadVar_row _ _ 35 35 _ (0, 0) _ (setRow_heap _ _ _ _ _ _ y9) Tryd.underlying35 rfl (by rw [hsz]; kernel_rfl)
      exact ⟨by rw [HT.out], below_setRow hbel (Nat.le_refl _) _⟩
set_option maxRecDepth 100000 in
set_option maxHeartbeats 8000000 in
theorem refWay_any : ∀ (m : Nat) (l : List H32) (i : Nat) (a : Option Addr) (cap : Nat) (w : World), l.length = m → i < m → m ≤ 1000000 → m ≤ cap → cap ≤ maxLen → RowAt w a (l.flatMap H32.cells) → True →
    Calls Tryd.prog 93 #[.slice a m cap, .int .i64 i] w (WayPost w l i) := by
  intro m
  induction m using Nat.strongRecOn with
  | _ m ih =>
  intro l i a cap w hl hi hm hcap hcm hr hW
  have d0 : decide ((i : Int) < 0) = false := decide_eq_false (by omega)
  have d1 : decide ((m : Int) ≤ (i : Int)) = false := decide_eq_false (by omega)
  have d1n : decide (m ≤ i) = false := decide_eq_false (by omega)
  rcases Nat.lt_or_ge m 2 with hm2 | hm2
  · obtain rfl : m = 1 := by omega
    obtain rfl : i = 0 := by omega
    have hw0 : wayH l 0 = [] := wayH_none (by omega)
    have HW0 := Lib.hid hw0
    clear hw0 ih
    go_enter Tryd.func93, Tryd.ntmps93
    go_wp2
    go_ret
    refine ⟨_, rfl, ?_, Below.refl _ _⟩
    rw [HW0.out]
    exact ⟨rfl, .inl ⟨rfl, rfl⟩⟩
  have d2 : decide ((m : Int) < 2) = false := decide_eq_false (by omega)
  have d2n : decide (m < 2) = false := decide_eq_false (by omega)
  obtain ⟨b, off, rfl, hb, _⟩ := hs_at hr (k := 0) (by omega)
  have hr1 := hs_take hr (halfN l.length)
  have hr2 := hs_drop hr (halfN l.length)
  have CH := fun W : World => refHalfN_any m W hm2 (by omega)
  have hlt := halfN_lt hm2
  have hpos := halfN_pos m
  have hlen : (wayH l i).length ≤ 30 := by rw [way_len m l i hl hi]; exact deepN_30 (by omega)
  rw [hl] at hr1 hr2
  obtain ⟨i0, hi0, hz0', hz1, hz2⟩ := info_parts Tryd.infoH
  by_cases hh : i < halfN m
  · have hwl := wayH_left (l := l) (i := i) (by omega) (by rw [hl]; exact hh)
    rw [hl] at hwl
    have IH := fun W => ih (halfN m) hlt (l.take (halfN m)) i (some ⟨b, off, none⟩) cap W (by rw [List.length_take]; omega) hh (by omega) (by omega) hcm
    have CT := fun W => refTop_any (m - halfN m) (l.drop (halfN m)) (some ⟨b, off + halfN m * 32, none⟩) (cap - halfN m) W (by rw [List.length_drop]; omega) (by omega) (by omega) (by omega)
    obtain ⟨h, hhh⟩ : ∃ h, halfN m = h := ⟨_, rfl⟩
    simp only [hhh] at hr1 hr2 hwl CH hlt hpos hh IH CT
    obtain ⟨T2, hT2⟩ : ∃ T, topH (l.drop h) = T := ⟨_, rfl⟩
    simp only [hT2] at hwl CT
    have hwn : (wayH (l.take h) i).length + 1 ≤ 30 := by rw [hwl, List.length_append] at hlen; exact hlen
    have HWL := Lib.hid hwl
    have hrW := hr1
    have hrT := hr2
    clear hhh hT2 ih hwl hlen hr1 hr2
    have n1 : (0 : Int) ≤ (h : Int) := by omega
    have n2 : (h : Int) ≤ (cap : Int) := by omega
    have n3 : (h : Int) ≤ (m : Int) := by omega
    have n4 : (m : Int) ≤ (cap : Int) := by omega
    have n5 : ((h : Nat) : Int).toNat = h := by omega
    have n6 : h ≤ cap := by omega
    have n7 : h ≤ m := by omega
    have dd : decide ((i : Int) < (h : Int)) = true := decide_eq_true (by omega)
    have ddn : decide (i < h) = true := decide_eq_true hh
    go_enter Tryd.func93, Tryd.ntmps93
    go_upto_region 5 with (go_at_call 90; refine (CH _).mono ?_; rintro e w2 ⟨rfl, hb2⟩)
    have hbel := hb2
    have hrW := hrW.below hb2
    have hrT := hrT.below hb2
    have hW := trivial
    clear hb2 CH
    refine wp_region_facts_chain 10 (by decide) [Fact.eq (.slice (some ⟨b, off, none⟩) m cap), Fact.eq (.int .i64 h), Fact.eq (.slice (some ⟨b, off, none⟩) h cap), Fact.eq (.int .i64 i), Fact.own w.heap.size (wayH (l.take h) i).length ((wayH (l.take h) i).flatMap H32.cells), Fact.eq (.slice (some ⟨b, off, none⟩) m cap), Fact.eq (.int .i64 h), Fact.eq (.slice (some ⟨b, off + h * 32, none⟩) (m - h) (cap - h)), Fact.eq (.agg (hrow T2.1)), Fact.row (1) (T2.cells)] (by kernel_rfl) (by kernel_rfl) (by kernel_rfl) (by kernel_rfl) (by kernel_rfl) (by kernel_rfl) (by kernel_rfl) (fun x => by simp only [List.take_succ_cons, List.take_zero, fillFrom, Act.put, List.setIfInBounds_toArray, List.set_cons_succ, List.set_cons_zero]; rfl) ?_ ?_
    · refine ⟨?_, ?_, ?_, ?_, ?_, ?_, ?_, ?_, ?_, ?_, trivial⟩
      · intro x w' hbw hd
        clear hd
        go_wp2_with fail
        exact frPost_mk rfl (by repeat (first | assumption | exact Below.refl _ _ | refine bch ?_ (by assumption) | refine Below.alloc ?_ (by simp) _)) rfl
      · intro x w' hbw hd
        clear hd
        go_wp2_with fail
        exact frPost_mk rfl (by repeat (first | assumption | exact Below.refl _ _ | refine bch ?_ (by assumption) | refine Below.alloc ?_ (by simp) _)) rfl
      · intro x w' hbw hd
        have d0 : x 0 = .slice (some ⟨b, off, none⟩) m cap := hd 0 rfl
        have d1 : x 1 = .int .i64 h := hd 1 rfl
        clear hd
        go_wp2_with fail
        exact frPost_mk rfl (by repeat (first | assumption | exact Below.refl _ _ | refine bch ?_ (by assumption) | refine Below.alloc ?_ (by simp) _)) rfl
      · intro x w' hbw hd
        clear hd
        go_wp2_with fail
        exact frPost_mk rfl (by repeat (first | assumption | exact Below.refl _ _ | refine bch ?_ (by assumption) | refine Below.alloc ?_ (by simp) _)) rfl
      · intro x w' hbw hd
        have d2 : x 2 = .slice (some ⟨b, off, none⟩) h cap := hd 2 rfl
        have d3 : x 3 = .int .i64 i := hd 3 rfl
        clear hd
        have CC := IH w' (hrW.below hbw) trivial
        go_wp2_with (first | (go_at_call 93; refine CC.mono ?_; rintro e wx ⟨vx, rfl, hox, hbx⟩))
        exact frPost_mk rfl (by repeat (first | assumption | exact Below.refl _ _ | refine bch ?_ (by assumption) | refine Below.alloc ?_ (by simp) _)) (own_lower hox (Nat.le_trans hbel.size hbw.size))
      · intro x w' hbw hd
        clear hd
        go_wp2_with fail
        exact frPost_mk rfl (by repeat (first | assumption | exact Below.refl _ _ | refine bch ?_ (by assumption) | refine Below.alloc ?_ (by simp) _)) rfl
      · intro x w' hbw hd
        clear hd
        go_wp2_with fail
        exact frPost_mk rfl (by repeat (first | assumption | exact Below.refl _ _ | refine bch ?_ (by assumption) | refine Below.alloc ?_ (by simp) _)) rfl
      · intro x w' hbw hd
        have d5 : x 5 = .slice (some ⟨b, off, none⟩) m cap := hd 5 rfl
        have d6 : x 6 = .int .i64 h := hd 6 rfl
        clear hd
        go_wp2_with fail
        exact frPost_mk rfl (by repeat (first | assumption | exact Below.refl _ _ | refine bch ?_ (by assumption) | refine Below.alloc ?_ (by simp) _)) rfl
      · intro x w' hbw hd
        have d7 : x 7 = .slice (some ⟨b, off + h * 32, none⟩) (m - h) (cap - h) := hd 7 rfl
        clear hd
        have CC := CT w' (hrT.below hbw) trivial
        go_wp2_with (first | (go_at_call 62; refine (CC).mono ?_; rintro e wx ⟨rfl, hbx⟩))
        exact frPost_mk rfl (by repeat (first | assumption | exact Below.refl _ _ | refine bch ?_ (by assumption) | refine Below.alloc ?_ (by simp) _)) rfl
      · intro x w' hbw hd
        have d8 : x 8 = .agg (hrow T2.1) := hd 8 rfl
        clear hd
        have hsz : (hrow T2.1).size = 32 := by rw [hrow_size]; exact T2.2
        have hszL : (hrow T2.1).toList.length = 32 := by rw [H32.list]; exact H32.cells_len _
        go_wp2_with fail
        refine frPost_mk rfl (by repeat (first | assumption | exact Below.refl _ _ | refine bch ?_ (by assumption) | refine Below.alloc ?_ (by simp) _)) ?_; show (Fact.row (1) (T2.cells)).holds _ _; exact ⟨_, _, rfl, by rw [fold_row _ (hrow T2.1) 32 hsz (by rfl), ← H32.list]; exact row_newH _ _ _⟩
    · intro x w' hbw hall
      have ho := hall 4 (by decide)
      obtain ⟨a9, c9, hx9, hr9⟩ := (show (Fact.row (1) (T2.cells)).holds (x 9) w' from hall 9 (by decide))
      clear hall
      have ho : w'.ownsRow w.heap.size 35 32 (x 4) (wayH (l.take h) i).length ((wayH (l.take h) i).flatMap H32.cells) := ho
      have hbel := hbel.trans (hbw.mono hbel.size)
      rcases hr9 with hr9 | ⟨b9, o9, rfl, hb9, hc9⟩
      · have := H32.cells_len T2; rw [hr9] at this; cases this
      have hnews : ∀ j u, T2.cells[j]? = some u → w'.cell? ((⟨b9, o9, none⟩ : Addr).add j) = some u := fun j u hj => by
        rw [Addr.add_mid, hc9 j (List.getElem?_eq_some_iff.1 hj).1, hj]
      simp only [hx9, List.drop_succ_cons, List.drop_zero]
      go_wp2_with (at_builtin; refine wpList_append_own _ rfl (.tmp 29) (.tmp 34) 106 rfl w.heap.size 35 i0 (.agg #[.int .u8 0, .int .u8 0, .int .u8 0, .int .u8 0, .int .u8 0, .int .u8 0, .int .u8 0, .int .u8 0, .int .u8 0, .int .u8 0, .int .u8 0, .int .u8 0, .int .u8 0, .int .u8 0, .int .u8 0, .int .u8 0, .int .u8 0, .int .u8 0, .int .u8 0, .int .u8 0, .int .u8 0, .int .u8 0, .int .u8 0, .int .u8 0, .int .u8 0, .int .u8 0, .int .u8 0, .int .u8 0, .int .u8 0, .int .u8 0, .int .u8 0, .int .u8 0]) 32 32 Tryd.underlying106 hi0 hz0' hz1 hz2 rfl (by decide) (x 4) _ _ rfl ho ⟨b9, o9, none⟩ 1 c9 T2.cells rfl (by rw [H32.cells_len]) hnews hs_one1 (by unfold maxLen; omega) (by omega) hbel.size ?_)
      intro v9 w9 hown hgr _
      have hb9' : Below w.heap.size w' w9 := below_grown ho hgr hbel.size
      go_wp2
      go_ret
      refine ⟨_, rfl, ?_, hbel.trans hb9'⟩
      rw [HWL.out, List.length_append, List.flatMap_append, List.flatMap_cons, List.flatMap_nil, List.append_nil]
      exact hown
  · have hwl := wayH_right (l := l) (i := i) (by omega) (by omega) (by rw [hl]; exact hh)
    rw [hl] at hwl
    have IH := fun W => ih (m - halfN m) (by omega) (l.drop (halfN m)) (i - halfN m) (some ⟨b, off + halfN m * 32, none⟩) (cap - halfN m) W (by rw [List.length_drop]; omega) (by omega) (by omega) (by omega) (by omega)
    have CT := fun W => refTop_any (halfN m) (l.take (halfN m)) (some ⟨b, off, none⟩) cap W (by rw [List.length_take]; omega) (by omega) (by omega) hcm
    obtain ⟨h, hhh⟩ : ∃ h, halfN m = h := ⟨_, rfl⟩
    simp only [hhh] at hr1 hr2 hwl CH hlt hpos hh IH CT
    obtain ⟨j, hj⟩ : ∃ j, i - h = j := ⟨_, rfl⟩
    simp only [hj] at hwl IH
    obtain ⟨T2, hT2⟩ : ∃ T, topH (l.take h) = T := ⟨_, rfl⟩
    simp only [hT2] at hwl CT
    have hwn : (wayH (l.drop h) j).length + 1 ≤ 30 := by rw [hwl, List.length_append] at hlen; exact hlen
    have HWL := Lib.hid hwl
    have hrT := hr1
    have hrW := hr2
    clear hhh hT2 ih hwl hlen hr1 hr2
    have n1 : (0 : Int) ≤ (h : Int) := by omega
    have n2 : (h : Int) ≤ (cap : Int) := by omega
    have n3 : (h : Int) ≤ (m : Int) := by omega
    have n4 : (m : Int) ≤ (cap : Int) := by omega
    have n5 : ((h : Nat) : Int).toNat = h := by omega
    have n6 : h ≤ cap := by omega
    have n7 : h ≤ m := by omega
    have dd : decide ((i : Int) < (h : Int)) = false := decide_eq_false (by omega)
    have ddn : decide (i < h) = false := decide_eq_false hh
    go_enter Tryd.func93, Tryd.ntmps93
    go_upto_region 6 with (go_at_call 90; refine (CH _).mono ?_; rintro e w2 ⟨rfl, hb2⟩)
    have hbel := hb2
    have hrW := hrW.below hb2
    have hrT := hrT.below hb2
    have hW := trivial
    clear hb2 CH
    refine wp_region_facts_chain 12 (by decide) [Fact.eq (.slice (some ⟨b, off, none⟩) m cap), Fact.eq (.int .i64 h), Fact.eq (.slice (some ⟨b, off + h * 32, none⟩) (m - h) (cap - h)), Fact.eq (.int .i64 i), Fact.eq (.int .i64 h), Fact.eq (.int .i64 (j : Int)), Fact.own w.heap.size (wayH (l.drop h) j).length ((wayH (l.drop h) j).flatMap H32.cells), Fact.eq (.slice (some ⟨b, off, none⟩) m cap), Fact.eq (.int .i64 h), Fact.eq (.slice (some ⟨b, off, none⟩) h cap), Fact.eq (.agg (hrow T2.1)), Fact.row (1) (T2.cells)] (by kernel_rfl) (by kernel_rfl) (by kernel_rfl) (by kernel_rfl) (by kernel_rfl) (by kernel_rfl) (by kernel_rfl) (fun x => by simp only [List.take_succ_cons, List.take_zero, fillFrom, Act.put, List.setIfInBounds_toArray, List.set_cons_succ, List.set_cons_zero]; rfl) ?_ ?_
    · refine ⟨?_, ?_, ?_, ?_, ?_, ?_, ?_, ?_, ?_, ?_, ?_, ?_, trivial⟩
      · intro x w' hbw hd
        clear hd
        go_wp2_with fail
        exact frPost_mk rfl (by repeat (first | assumption | exact Below.refl _ _ | refine bch ?_ (by assumption) | refine Below.alloc ?_ (by simp) _)) rfl
      · intro x w' hbw hd
        clear hd
        go_wp2_with fail
        exact frPost_mk rfl (by repeat (first | assumption | exact Below.refl _ _ | refine bch ?_ (by assumption) | refine Below.alloc ?_ (by simp) _)) rfl
      · intro x w' hbw hd
        have d0 : x 0 = .slice (some ⟨b, off, none⟩) m cap := hd 0 rfl
        have d1 : x 1 = .int .i64 h := hd 1 rfl
        clear hd
        go_wp2_with fail
        exact frPost_mk rfl (by repeat (first | assumption | exact Below.refl _ _ | refine bch ?_ (by assumption) | refine Below.alloc ?_ (by simp) _)) rfl
      · intro x w' hbw hd
        clear hd
        go_wp2_with fail
        exact frPost_mk rfl (by repeat (first | assumption | exact Below.refl _ _ | refine bch ?_ (by assumption) | refine Below.alloc ?_ (by simp) _)) rfl
      · intro x w' hbw hd
        clear hd
        go_wp2_with fail
        exact frPost_mk rfl (by repeat (first | assumption | exact Below.refl _ _ | refine bch ?_ (by assumption) | refine Below.alloc ?_ (by simp) _)) rfl
      · intro x w' hbw hd
        have d3 : x 3 = .int .i64 i := hd 3 rfl
        have d4 : x 4 = .int .i64 h := hd 4 rfl
        clear hd
        have hsub : (i : Int) - (h : Int) = ((j : Nat) : Int) := by omega
        have hs1 : (0 : Int) ≤ (i : Int) - (h : Int) := by omega
        have hs2 : (i : Int) - (h : Int) ≤ 1000000 := by omega
        go_wp2_with fail
        exact frPost_mk rfl (by repeat (first | assumption | exact Below.refl _ _ | refine bch ?_ (by assumption) | refine Below.alloc ?_ (by simp) _)) (by show Value.int .i64 _ = Value.int .i64 _; first | rfl | rw [hsub])
      · intro x w' hbw hd
        have d2 : x 2 = .slice (some ⟨b, off + h * 32, none⟩) (m - h) (cap - h) := hd 2 rfl
        have d5 : x 5 = .int .i64 (j : Int) := hd 5 rfl
        clear hd
        have CC := IH w' (hrW.below hbw) trivial
        go_wp2_with (first | (go_at_call 93; refine CC.mono ?_; rintro e wx ⟨vx, rfl, hox, hbx⟩))
        exact frPost_mk rfl (by repeat (first | assumption | exact Below.refl _ _ | refine bch ?_ (by assumption) | refine Below.alloc ?_ (by simp) _)) (own_lower hox (Nat.le_trans hbel.size hbw.size))
      · intro x w' hbw hd
        clear hd
        go_wp2_with fail
        exact frPost_mk rfl (by repeat (first | assumption | exact Below.refl _ _ | refine bch ?_ (by assumption) | refine Below.alloc ?_ (by simp) _)) rfl
      · intro x w' hbw hd
        clear hd
        go_wp2_with fail
        exact frPost_mk rfl (by repeat (first | assumption | exact Below.refl _ _ | refine bch ?_ (by assumption) | refine Below.alloc ?_ (by simp) _)) rfl
      · intro x w' hbw hd
        have d7 : x 7 = .slice (some ⟨b, off, none⟩) m cap := hd 7 rfl
        have d8 : x 8 = .int .i64 h := hd 8 rfl
        clear hd
        go_wp2_with fail
        exact frPost_mk rfl (by repeat (first | assumption | exact Below.refl _ _ | refine bch ?_ (by assumption) | refine Below.alloc ?_ (by simp) _)) rfl
      · intro x w' hbw hd
        have d9 : x 9 = .slice (some ⟨b, off, none⟩) h cap := hd 9 rfl
        clear hd
        have CC := CT w' (hrT.below hbw) trivial
        go_wp2_with (first | (go_at_call 62; refine (CC).mono ?_; rintro e wx ⟨rfl, hbx⟩))
        exact frPost_mk rfl (by repeat (first | assumption | exact Below.refl _ _ | refine bch ?_ (by assumption) | refine Below.alloc ?_ (by simp) _)) rfl
      · intro x w' hbw hd
        have d10 : x 10 = .agg (hrow T2.1) := hd 10 rfl
        clear hd
        have hsz : (hrow T2.1).size = 32 := by rw [hrow_size]; exact T2.2
        have hszL : (hrow T2.1).toList.length = 32 := by rw [H32.list]; exact H32.cells_len _
        go_wp2_with fail
        refine frPost_mk rfl (by repeat (first | assumption | exact Below.refl _ _ | refine bch ?_ (by assumption) | refine Below.alloc ?_ (by simp) _)) ?_; show (Fact.row (1) (T2.cells)).holds _ _; exact ⟨_, _, rfl, by rw [fold_row _ (hrow T2.1) 32 hsz (by rfl), ← H32.list]; exact row_newH _ _ _⟩
    · intro x w' hbw hall
      have ho := hall 6 (by decide)
      obtain ⟨a9, c9, hx9, hr9⟩ := (show (Fact.row (1) (T2.cells)).holds (x 11) w' from hall 11 (by decide))
      clear hall
      have ho : w'.ownsRow w.heap.size 35 32 (x 6) (wayH (l.drop h) j).length ((wayH (l.drop h) j).flatMap H32.cells) := ho
      have hbel := hbel.trans (hbw.mono hbel.size)
      rcases hr9 with hr9 | ⟨b9, o9, rfl, hb9, hc9⟩
      · have := H32.cells_len T2; rw [hr9] at this; cases this
      have hnews : ∀ j u, T2.cells[j]? = some u → w'.cell? ((⟨b9, o9, none⟩ : Addr).add j) = some u := fun j u hj => by
        rw [Addr.add_mid, hc9 j (List.getElem?_eq_some_iff.1 hj).1, hj]
      simp only [hx9, List.drop_succ_cons, List.drop_zero]
      go_wp2_with (at_builtin; refine wpList_append_own _ rfl (.tmp 42) (.tmp 47) 106 rfl w.heap.size 35 i0 (.agg #[.int .u8 0, .int .u8 0, .int .u8 0, .int .u8 0, .int .u8 0, .int .u8 0, .int .u8 0, .int .u8 0, .int .u8 0, .int .u8 0, .int .u8 0, .int .u8 0, .int .u8 0, .int .u8 0, .int .u8 0, .int .u8 0, .int .u8 0, .int .u8 0, .int .u8 0, .int .u8 0, .int .u8 0, .int .u8 0, .int .u8 0, .int .u8 0, .int .u8 0, .int .u8 0, .int .u8 0, .int .u8 0, .int .u8 0, .int .u8 0, .int .u8 0, .int .u8 0]) 32 32 Tryd.underlying106 hi0 hz0' hz1 hz2 rfl (by decide) (x 6) _ _ rfl ho ⟨b9, o9, none⟩ 1 c9 T2.cells rfl (by rw [H32.cells_len]) hnews hs_one1 (by unfold maxLen; omega) (by omega) hbel.size ?_)
      intro v9 w9 hown hgr _
      have hb9' : Below w.heap.size w' w9 := below_grown ho hgr hbel.size
      go_wp2
      go_ret
      refine ⟨_, rfl, ?_, hbel.trans hb9'⟩
      rw [HWL.out, List.length_append, List.flatMap_append, List.flatMap_cons, List.flatMap_nil, List.append_nil]
      exact hown
end Go.Proofs.YtpledhipdiephaaDoor
