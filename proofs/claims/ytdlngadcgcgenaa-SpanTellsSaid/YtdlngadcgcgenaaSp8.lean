/- span.Add. -/
import Derived.Test.YtdlngadcgcgenaaSpN
import Derived.Test.YtdlngadcgcgenaaInsRg
import Derived.BigRegion
import Derived.RegionTactic
import Derived.BigQuiet
import Derived.Deep.QuietTactic
import Derived.Deep.MidRow
import Derived.LoopTactic
import Derived.BigFrame
import Derived.Laws.OwnMore
import Derived.Lib.SliceRun
import Derived.WalkKit
import Derived.ProofKit
import Derived.Handy
import Derived.Below
import Derived.Lib.Hide
import Derived.IntWalk
import Derived.Outline
import Derived.WalkLawsBesides
import Derived.WalkSpells
namespace Go.Proofs.Ytdlngadcgcgenaa
open Go.RowKit
attribute [local go_sem] strV
set_option linter.unusedVariables false
set_option maxRecDepth 100000 in
set_option maxHeartbeats 1600000 in
theorem addClo_any (x y n : Int) (w : World) (h1 : -72057594037927936 ≤ x - n) (h2 : x - n ≤ 72057594037927936) : Calls Try.prog 41 #[.agg #[.int .i64 x, .int .i64 y], .int .i64 n] w fun e w' => e = .returned (.int .i64 (x - n)) ∧ Below w.heap.size w w' := by
  have hq := heap_push w #[.int .i64 x, .int .i64 y] 62
  have hb0 : Below w.heap.size w (w.alloc (.cells #[.int .i64 x, .int .i64 y] 62)) := Below.alloc (Below.refl _ _) (Nat.le_refl _) _
  go_enter Try.func41, Try.ntmps41
  go_upto_region 1 with fail
  refine wp_nameE _ (fun W1 hX => ?_)
  have hx : W1.heap[w.heap.size]? = some (.cells #[.int .i64 x, .int .i64 y] 62 (0, 0)) := by rw [hX]; exact hq
  have hbel : Below w.heap.size w W1 := by rw [hX]; exact hb0
  clear hX hq hb0
  have c0 : W1.cell? ⟨w.heap.size, 0, none⟩ = some (.int .i64 x) := cell_heap hx 0
  have b1 : -9223372036854775808 ≤ x - n := by omega
  have b2 : x - n ≤ 9223372036854775807 := by omega
  go_wp2
  go_ret
  exact ⟨rfl, hbel⟩
set_option maxRecDepth 100000 in
set_option maxHeartbeats 6400000 in
/-- The search finds where the ranges from n on begin. -/
theorem srch_any (a : Option Addr) (n cap : Nat) (l : List (Int × Int)) (x0 : Int) (at_ : Nat) (w : World) (hr : RowAt w a (l.flatMap rgL)) (hn : l.length = n) (hm : n ≤ 1000000) (hat : at_ ≤ n)
    (hb : ∀ (t : Nat) r, l[t]? = some r → -72057594037927936 ≤ r.1 - x0 ∧ r.1 - x0 ≤ 72057594037927936) (hlo : ∀ (t : Nat) r, t < at_ → l[t]? = some r → r.1 < x0) (hhi : ∀ (t : Nat) r, at_ ≤ t → l[t]? = some r → x0 ≤ r.1) :
    Calls Try.prog 40 #[.slice a n cap, .int .i64 x0, .func (.func 41) #[] #[]] w fun e w' => (∃ f : Bool, e = .returned (.tuple #[.int .i64 (at_ : Nat), .bool f])) ∧ Below w.heap.size w w' := by
  have HN := Lib.hid hn
  have HLO := Lib.hid hlo
  have HHI := Lib.hid hhi
  have HB := Lib.hid hb
  clear hn hlo hhi hb
  go_enter Try.func40, Try.ntmps40
  go_upto_region 3 with fail
  go_loopw [9, 10] (fun vi vj wr => ∃ i j : Nat, i ≤ at_ ∧ at_ ≤ j ∧ j ≤ n ∧ vi = .int .i64 i ∧ vj = .int .i64 j ∧ Below w.heap.size w wr) (fun vi vj _ => (intOf vj).toNat - (intOf vi).toNat)
  case atStart => exact ⟨0, n, Nat.zero_le _, hat, Nat.le_refl _, rfl, rfl, Below.refl _ _⟩
  case round =>
    obtain ⟨i, j, hi1, hj1, hj, rfl, rfl, hbel⟩ := hrel
    by_cases hlt : i < j
    rotate_left
    · have d9 : decide ((i : Int) < (j : Int)) = false := decide_eq_false (by omega)
      have d9n : decide (i < j) = false := decide_eq_false hlt
      obtain rfl : at_ = i := by omega
      by_cases hin : at_ < n
      · have f1 : decide ((at_ : Int) < (n : Int)) = true := decide_eq_true (by omega)
        have f1n : decide (at_ < n) = true := decide_eq_true hin
        have hkl : at_ < l.length := by rw [HN.out]; exact hin
        obtain ⟨b1, o1, rfl, hb1, hg1⟩ := rg_range (hr.below hbel) hkl
        have hkm := List.getElem?_eq_getElem hkl
        obtain ⟨⟨x, y⟩, hxy⟩ : ∃ p, l[at_] = p := ⟨_, rfl⟩
        rw [hxy] at hg1 hkm
        have hbd := HB.out at_ (x, y) hkm
        have CC := fun W => addClo_any x y x0 W hbd.1 hbd.2
        have hg1 : wr.rangeAt b1 (o1 + at_ * 2) (#[.int .i64 x, .int .i64 y] : Array Value).toList := hg1
        obtain ⟨c9, hc9⟩ : ∃ z, x - x0 = z := ⟨_, rfl⟩
        simp only [hc9] at CC
        have n0 : (0 : Int) ≤ (at_ : Int) := by omega
        have n1 : (at_ : Int) < (n : Int) := by omega
        have n2 : ((at_ : Nat) : Int).toNat = at_ := by omega
        clear hxy hkm hbd hc9
        have k0 : wr.cell? ⟨b1, o1 + at_ * 2, none⟩ = some (.int .i64 x) := hg1 0 _ rfl
        have k1 : wr.cell? ⟨b1, o1 + at_ * 2 + 1, none⟩ = some (.int .i64 y) := hg1 1 _ rfl
        clear hg1
        go_wp2_with (go_at_call 41; refine (CC _).mono ?_; rintro e w2 ⟨rfl, hb2⟩; have hbel := hbel.trans (hb2.mono hbel.size))
        go_returns
        exact ⟨⟨_, rfl⟩, hbel⟩
      · have f1 : decide ((at_ : Int) < (n : Int)) = false := decide_eq_false (by omega)
        have f1n : decide (at_ < n) = false := decide_eq_false hin
        go_wp2
        go_returns
        exact ⟨⟨_, rfl⟩, hbel⟩
    have d1 : decide ((i : Int) < (j : Int)) = true := decide_eq_true (by omega)
    have d1n : decide (i < j) = true := decide_eq_true hlt
    have s1 : (i : Int) + (j : Int) ≤ 9223372036854775807 := by omega
    have s0 : (0 : Int) ≤ (i : Int) + (j : Int) := by omega
    go_upto_region 5 with fail
    obtain ⟨h, hh⟩ : ∃ h : Nat, ((i : Int) + (j : Int)) / 2 = (h : Nat) := ⟨(i + j) / 2, by omega⟩
    have hih : i ≤ h := by omega
    have hhj : h < j := by omega
    simp only [hh]
    have hkl : h < l.length := by rw [HN.out]; omega
    obtain ⟨b1, o1, rfl, hb1, hg1⟩ := rg_range (hr.below hbel) hkl
    have hkm := List.getElem?_eq_getElem hkl
    obtain ⟨⟨x, y⟩, hxy⟩ : ∃ p, l[h] = p := ⟨_, rfl⟩
    rw [hxy] at hg1 hkm
    have hbd := HB.out h (x, y) hkm
    have CC := fun W => addClo_any x y x0 W hbd.1 hbd.2
    have hg1 : wr.rangeAt b1 (o1 + h * 2) (#[.int .i64 x, .int .i64 y] : Array Value).toList := hg1
    have n0 : (0 : Int) ≤ (h : Int) := by omega
    have n1 : (h : Int) < (n : Int) := by omega
    have n2 : ((h : Nat) : Int).toNat = h := by omega
    clear hh hxy hbd
    by_cases hc : h < at_
    · have e1 : x - x0 < 0 := by have := HLO.out h (x, y) hc hkm; simp only [] at this; omega
      have e2 : decide (x - x0 < 0) = true := decide_eq_true e1
      obtain ⟨c9, hc9⟩ : ∃ z, x - x0 = z := ⟨_, rfl⟩
      rw [hc9] at e2
      simp only [hc9] at CC
      clear hc9 e1 hkm
      go_wp2_with (first | (refine wpList_load_mid rfl 62 (.tmp 27) rfl b1 _ rfl ((#[.int .i64 x, .int .i64 y] : Array Value).toList) _ hg1 Try.underlying62 rfl (by rfl) ?_; rw [Array.toArray_toList]) | (go_at_call 41; refine (CC _).mono ?_; rintro e w2 ⟨rfl, hb2⟩; have hbel := hbel.trans (hb2.mono hbel.size)))
      go_roundw
      case rel => exact ⟨h + 1, j, by omega, hj1, hj, by go_num, rfl, hbel⟩
      case measure => (simp [intOf]) <;> omega
    · have e1 : ¬ x - x0 < 0 := by have := HHI.out h (x, y) (by omega) hkm; simp only [] at this; omega
      have e2 : decide (x - x0 < 0) = false := decide_eq_false e1
      obtain ⟨c9, hc9⟩ : ∃ z, x - x0 = z := ⟨_, rfl⟩
      rw [hc9] at e2
      simp only [hc9] at CC
      clear hc9 e1 hkm
      go_wp2_with (first | (refine wpList_load_mid rfl 62 (.tmp 27) rfl b1 _ rfl ((#[.int .i64 x, .int .i64 y] : Array Value).toList) _ hg1 Try.underlying62 rfl (by rfl) ?_; rw [Array.toArray_toList]) | (go_at_call 41; refine (CC _).mono ?_; rintro e w2 ⟨rfl, hb2⟩; have hbel := hbel.trans (hb2.mono hbel.size)))
      go_roundw
      case rel => exact ⟨i, h, hi1, by omega, by omega, rfl, by go_num, hbel⟩
      case measure => (simp [intOf]) <;> omega
theorem rg_ones (l : List (Int × Int)) : ∀ u ∈ l.flatMap rgL, u.oneCell' = true := by
  intro u hu
  obtain ⟨r, _, hr⟩ := List.mem_flatMap.1 hu
  exact two_one r.1 r.2 u hr
set_option maxRecDepth 100000 in
set_option maxHeartbeats 3200000 in
theorem cloneRg_any (a : Option Addr) (n cap : Nat) (l : List (Int × Int)) (w : World) (hr : RowAt w a (l.flatMap rgL)) (hn : l.length = n) (hm : n ≤ 1000000) (ha : a = none → n = 0 ∧ cap = 0) :
    Calls Try.prog 39 #[.slice a n cap] w fun e w' => ∃ v, e = .returned v ∧ w'.ownsRow w.heap.size 62 2 v l.length (l.flatMap rgL) ∧ Below w.heap.size w w' := by
  have q22 : ∀ (w : World) (a : Option Addr) (n c n' c' : Nat), (binOp .eql 22 (.slice a n c) (.slice none n' c')).run Try.prog w = .ok (.bool a.isNone) w := fun w a n c n' c' => Lib.run_eql_slice_nil w _ _ a n c n' c' Try.underlying22
  obtain ⟨iR, hiR, hzR, hsR, hbR⟩ := info_parts Try.infoRg
  have HN := Lib.hid hn
  have HL := Lib.hid (show (l.flatMap rgL).length = n * 2 by rw [rg_flat_len, hn])
  clear hn
  cases a with
  | none =>
    obtain ⟨rfl, rfl⟩ := ha rfl
    have hnil : l = [] := List.eq_nil_of_length_eq_zero HN.out
    subst hnil
    go_enter Try.func39, Try.ntmps39
    go_wp2
    go_ret
    exact ⟨_, rfl, World.ownsRow_nil _ _ _ _, Below.refl _ _⟩
  | some ad =>
    have hn0 : ∀ W : World, (W.alloc (.cells #[] 62)).ownsRow W.heap.size 62 2 (.slice (some ⟨W.heap.size, 0, none⟩) 0 0) 0 [] := fun W => ⟨rfl, .inr ⟨W.heap.size, 0, #[], rfl, Nat.le_refl _, heap_push _ _ _, Nat.le_refl _, Nat.zero_le _, rfl, rfl⟩⟩
    go_enter Try.func39, Try.ntmps39
    go_wp2_with (at_builtin; refine wpList_append_ownA _ rfl (.tmp 5) (.tmp 6) 22 rfl w.heap.size 62 iR (.agg #[.int .i64 0, .int .i64 0]) 2 16 Try.underlying22 hiR hzR hsR hbR rfl (by decide) _ _ _ rfl (hn0 w) (some ad) n cap (l.flatMap rgL) rfl ha HL.out (row_newsM (hr.below (Below.alloc (Below.refl _ _) (Nat.le_refl _) _))) (rg_ones l) (by unfold maxLen; omega) (by omega) (by simp) ?_; intro v5 w5 hown5 hgr5)
    go_ret
    refine ⟨_, rfl, by rw [HN.out]; simpa using hown5, ?_⟩
    exact (Below.alloc (Below.refl _ _) (Nat.le_refl _) _).trans ((below_grown (hn0 w) hgr5 (by simp)).mono (Nat.le_refl _))
end Go.Proofs.Ytdlngadcgcgenaa
