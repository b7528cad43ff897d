/- span.All, Lacks, Of. -/
import Derived.Test.YtdlngadcgcgenaaSp1
import Derived.Test.YtdlngadcgcgenaaSort
import Derived.BigRegion
import Derived.RegionTactic
import Derived.BigQuiet
import Derived.Deep.QuietTactic
import Derived.Deep.MidRow
import Derived.LoopTactic
import Derived.BigFrame
import Derived.WalkKit
import Derived.ProofKit
import Derived.Handy
import Derived.Below
import Derived.Lib.Hide
import Derived.IntWalk
import Derived.Outline
import Derived.WalkLawsBesides
import Derived.WalkSpells
namespace Go.Proofs.Ytdlngadcgcgenaa
open Go.RowKit
attribute [local go_sem] strV
set_option linter.unusedVariables false
theorem Try.infoRg : (Try.prog.info? 62).map (fun i => (i.zero, i.size, i.bytes)) = some (some (.agg #[.int .i64 0, .int .i64 0]), 2, 16) := by kernel_rfl
/-- The numbers from a to b. -/
def rngR (a b : Int) : List Int := (List.range (b + 1 - a).toNat).map (fun i : Nat => a + (i : Int))
theorem rngR_nil {a b : Int} (h : b < a) : rngR a b = [] := by
  unfold rngR
  rw [show (b + 1 - a).toNat = 0 by omega]; rfl
theorem rngR_snoc {a b : Int} (h : a ≤ b) : rngR a b = rngR a (b - 1) ++ [b] := by
  unfold rngR
  rw [show (b + 1 - a).toNat = (b - 1 + 1 - a).toNat + 1 by omega, List.range_succ, List.map_append, List.map_singleton]
  congr 2
  omega
theorem rngR_mem {a b v : Int} : v ∈ rngR a b ↔ a ≤ v ∧ v ≤ b := by
  unfold rngR
  rw [List.mem_map]
  constructor
  · rintro ⟨i, hi, rfl⟩
    rw [List.mem_range] at hi
    omega
  · intro h
    exact ⟨(v - a).toNat, by rw [List.mem_range]; omega, by omega⟩
theorem rngR_app {x t y : Int} (h1 : x ≤ t) (h2 : t ≤ y + 1) : rngR x y = rngR x (t - 1) ++ rngR t y := by
  unfold rngR
  rw [show (y + 1 - x).toNat = (t - 1 + 1 - x).toNat + (y + 1 - t).toNat by omega, List.range_add, List.map_append, List.map_map]
  congr 1
  apply List.map_congr_left
  intro i _
  show x + (((t - 1 + 1 - x).toNat + i : Nat) : Int) = t + (i : Int)
  omega
theorem own_tagS {w : World} {base : Nat} {e T : TypeId} {size n g : Nat} {v : Value} {xs : List Value} {cs : Array Value} {fz : Nat × Nat} (h : w.ownsRow base e size v n xs) (hv : v.ownBlock = some g) (hg : w.heap[g]? = some (.cells cs T fz)) : T = e := by
  rcases h.2 with ⟨rfl, _⟩ | ⟨g9, cap, cur, rfl, _, hgg, _⟩
  · simp [Value.ownBlock] at hv
  · simp [Value.ownBlock] at hv
    subst hv
    rw [hg] at hgg; cases hgg; rfl
def allR (l : List (Int × Int)) : List Int := l.flatMap (fun r => rngR r.1 r.2)
theorem allR_take {l : List (Int × Int)} {k : Nat} (hk : k < l.length) : allR (l.take (k + 1)) = allR (l.take k) ++ rngR l[k].1 l[k].2 := by
  unfold allR
  rw [List.take_succ_eq_append_getElem hk, List.flatMap_append]
  simp
theorem take_more {A B : List Int} {M : Nat} (h : M ≤ A.length) : (A ++ B).take M = A.take M := List.take_append_of_le_length h
theorem take_step {A : List Int} {M : Nat} {x : Int} (h : (A.take M).length < M) : (A ++ [x]).take M = A.take M ++ [x] := by
  rw [List.length_take] at h
  rw [List.take_of_length_le (by omega : A.length ≤ M), List.take_of_length_le (by simp; omega)]
theorem take_full {A B : List Int} {M : Nat} (h : ¬ (A.take M).length < M) : (A ++ B).take M = A.take M := by
  rw [List.length_take] at h
  exact take_more (by omega)
set_option maxRecDepth 100000 in
set_option maxHeartbeats 6400000 in
theorem all_any (a : Option Addr) (n cap : Nat) (l : List (Int × Int)) (most : Int) (w : World) (hr : RowAt w a (l.flatMap rgL)) (hn : l.length = n) (hm : n ≤ maxLen) (hmost : most ≤ 1000) (hmo : -1000 ≤ most) :
    Calls Try.prog 14 #[.slice a n cap, .int .i64 most] w fun e w' => ∃ v, e = .returned v ∧ w'.ownsRow w.heap.size 3 1 v (if goodR l = true then (allR l).take most.toNat else []).length ((if goodR l = true then (allR l).take most.toNat else []).map (Value.int .i64)) ∧ Below w.heap.size w w' := by
  have CG := fun W (hb : Below w.heap.size w W) => good_any a n cap l W (hr.below hb) hn hm
  obtain ⟨gd, hgd⟩ : ∃ r, goodR l = r := ⟨_, rfl⟩
  simp only [hgd] at CG ⊢
  have HGD := Lib.hid hgd
  unfold maxLen at hm
  have HN := Lib.hid hn
  clear hgd hn
  cases gd
  · simp only [Bool.false_eq_true, if_false]
    go_enter Try.func14, Try.ntmps14
    go_wp2_with (go_at_call 9; refine (CG _ (Below.refl _ _)).mono ?_; rintro e w2 ⟨rfl, hb⟩)
    go_ret
    exact ⟨_, rfl, World.ownsRow_nil _ _ _ _, hb⟩
  simp only [if_true]
  obtain ⟨M, hM⟩ : ∃ M, most.toNat = M := ⟨_, rfl⟩
  simp only [hM]
  have hM3 : M ≤ 1000 := by omega
  have hMs : ∀ q : Nat, decide ((q : Int) < most) = decide (q < M) := fun q => by rw [decide_eq_decide]; omega
  have HMS := Lib.hid hMs
  obtain ⟨i0, hi, hzI, hsI, hbI⟩ := info_parts Try.infoI
  clear hM hMs
  go_enter Try.func14, Try.ntmps14
  go_upto_region 5 with (go_at_call 9; refine (CG _ (Below.refl _ _)).mono ?_; rintro e w2 ⟨rfl, hbel⟩)
  go_loopw [5, 14] (fun v i wr => ∃ k : Nat, k ≤ n ∧ i = .int .i64 k ∧ wr.ownsRow w.heap.size 3 1 v ((allR (l.take k)).take M).length (((allR (l.take k)).take M).map (Value.int .i64)) ∧ w.heap.size ≤ wr.heap.size ∧ Below w.heap.size w wr) (fun _ i _ => n - (intOf i).toNat)
  case atStart => exact ⟨0, Nat.zero_le _, rfl, by simpa [allR] using World.ownsRow_nil _ _ _ _, hbel.size, hbel⟩
  case round =>
    clear hbel
    obtain ⟨k, hk, rfl, hown, hsz, hbel⟩ := hrel
    by_cases hlt : k < n
    rotate_left
    · have d9 : decide ((k : Int) < (n : Int)) = false := decide_eq_false (by omega)
      have d9n : decide (k < n) = false := decide_eq_false hlt
      rw [List.take_of_length_le (l := l) (i := k) (by rw [HN.out]; omega)] at hown
      go_wp2
      go_ret
      exact ⟨_, rfl, hown, hbel⟩
    have d9 : decide ((k : Int) < (n : Int)) = true := decide_eq_true (by omega)
    have d9n : decide (k < n) = true := decide_eq_true hlt
    have hkl : k < l.length := by rw [HN.out]; exact hlt
    have hat := allR_take hkl
    obtain ⟨b1, o1, rfl, hb1, hg1⟩ := rg_range (hr.below hbel) hkl
    have hkm := List.getElem?_eq_getElem hkl
    have hdr := List.drop_eq_getElem_cons hkl
    obtain ⟨⟨x, y⟩, hxy⟩ : ∃ p, l[k] = p := ⟨_, rfl⟩
    rw [hxy] at hg1 hkm hdr hat
    have hg1 : wr.rangeAt b1 (o1 + k * 2) (#[.int .i64 x, .int .i64 y] : Array Value).toList := hg1
    clear hxy
    have n0 : (0 : Int) ≤ (k : Int) := by omega
    have n1 : (k : Int) < (n : Int) := by omega
    have n2 : ((k : Nat) : Int).toNat = k := by omega
    have hgk := good_take HGD.out hkm
    unfold maxN at hgk
    simp only [] at hgk hat
    obtain ⟨A, hA⟩ : ∃ A, allR (l.take k) = A := ⟨_, rfl⟩
    rw [hA] at hat hown
    have HAT := Lib.hid hat
    clear hkm hdr hA hat
    go_upto_region 7 with (first | (refine wpList_load_mid rfl 62 (.tmp 16) rfl b1 _ rfl ((#[.int .i64 x, .int .i64 y] : Array Value).toList) _ hg1 Try.underlying62 rfl (by rfl) ?_; rw [Array.toArray_toList]) | fail)
    refine wp_nameE _ (fun W6 hX => ?_)
    have hb6 : Below wr.heap.size wr W6 := by rw [hX]; exact Below.alloc (Below.refl _ _) (Nat.le_refl _) _
    have hszg : w.heap.size ≤ wr.heap.size := hbel.size
    have hx6 : W6.heap[wr.heap.size]? = some (.cells #[.int .i64 x, .int .i64 y] 62 (0, 0)) := by rw [hX]; exact heap_push _ _ _
    have hbel := hbel.trans (hb6.mono hbel.size)
    obtain ⟨g6, hg6⟩ : ∃ g, wr.heap.size = g := ⟨_, rfl⟩
    rw [hg6] at hx6 hszg
    simp only [hg6]
    clear hX hg1 hg6
    have c0 : W6.cell? ⟨g6, 0, none⟩ = some (.int .i64 x) := cell_heap hx6 0
    have c1 : W6.cell? ⟨g6, 1, none⟩ = some (.int .i64 y) := cell_heap hx6 1
    have hown := own_kept9 hown hb6
    have hsz := Nat.le_trans hsz hb6.size
    have hlx : g6 < W6.heap.size := row_lt hx6
    have hgl : w.heap.size ≤ g6 := hszg
    clear hb6
    go_upto_region 8 with fail
    clear c0 c1
    go_loopw [5, 8] (fun v j wr => ∃ t : Int, j = .int .i64 t ∧ x ≤ t ∧ t ≤ y + 1 ∧ wr.ownsRow w.heap.size 3 1 v ((A ++ rngR x (t - 1)).take M).length (((A ++ rngR x (t - 1)).take M).map (Value.int .i64)) ∧ wr.heap[g6]? = some (.cells #[.int .i64 x, .int .i64 y] 62 (0, 0)) ∧ w.heap.size ≤ wr.heap.size ∧ Below w.heap.size w wr) (fun _ j _ => (y + 1 - intOf j).toNat)
    case atStart => exact ⟨x, rfl, by omega, by omega, by rw [rngR_nil (by omega), List.append_nil]; exact hown, hx6, hsz, hbel⟩
    case round =>
      clear hown hx6 hsz hbel
      obtain ⟨t, rfl, ht1, ht2, hown, hx6, hsz, hbel⟩ := hrel
      have c0 : wr.cell? ⟨g6, 0, none⟩ = some (.int .i64 x) := cell_heap hx6 0
      have c1 : wr.cell? ⟨g6, 1, none⟩ = some (.int .i64 y) := cell_heap hx6 1
      obtain ⟨a5, c5, rfl, _⟩ := own_slice hown
      obtain ⟨Q, hQ⟩ : ∃ Q, (A ++ rngR x (t - 1)).take M = Q := ⟨_, rfl⟩
      rw [hQ] at hown
      simp only [hQ]
      have HQ := Lib.hid hQ
      have hQM : Q.length ≤ M := by rw [← hQ, List.length_take]; omega
      have hdm := HMS.out Q.length
      obtain ⟨q, hq⟩ : ∃ q, Q.length = q := ⟨_, rfl⟩
      rw [hq] at hQM hdm
      simp only [hq] at hown ⊢
      have HLQ := Lib.hid hq
      clear hQ hq
      by_cases hty : t ≤ y
      rotate_left
      · have f1 : decide (t ≤ y) = false := decide_eq_false hty
        obtain rfl : t = y + 1 := by omega
        have hfu : (A ++ rngR x y).take M = Q := by rw [← HQ.out, show y + 1 - 1 = y by omega]
        go_wp2
        go_roundw
        case rel => exact ⟨k + 1, by omega, by go_num, by rw [HAT.out, hfu, HLQ.out]; exact hown, hsz, hbel⟩
        case measure => (simp [intOf]) <;> omega
      have f1 : decide (t ≤ y) = true := decide_eq_true hty
      by_cases hqm : q < M
      rotate_left
      · have f2 : decide ((q : Int) < most) = false := by rw [hdm]; exact decide_eq_false hqm
        have hfu : Q = (A ++ rngR x y).take M := by
          have e : rngR x y = rngR x (t - 1) ++ rngR t y := rngR_app ht1 ht2
          rw [e, ← List.append_assoc, take_full (by rw [HQ.out, HLQ.out]; exact hqm), HQ.out]
        go_wp2
        go_roundw
        case rel => exact ⟨k + 1, by omega, by go_num, by rw [HAT.out, ← hfu, HLQ.out]; exact hown, hsz, hbel⟩
        case measure => (simp [intOf]) <;> omega
      have f2 : decide ((q : Int) < most) = true := by rw [hdm]; exact decide_eq_true hqm
      have hst : (A ++ rngR x t).take M = Q ++ [t] := by
        rw [rngR_snoc ht1, ← List.append_assoc, take_step (by rw [HQ.out, HLQ.out]; exact hqm), HQ.out]
      have HST := Lib.hid hst
      clear hst hdm
      have hb5 : Below wr.heap.size wr (wr.alloc (.cells #[.int .i64 t] 3)) := Below.alloc (Below.refl _ _) (Nat.le_refl _) _
      have hx7 := cells_of hx6 hb5 (row_lt hx6)
      go_wp2_with (at_builtin; refine wpList_append_own_at _ rfl (.tmp 32) (.tmp 34) 29 rfl w.heap.size 3 i0 (.int .i64 0) 1 8 Try.underlying29 hi hzI hsI hbI rfl (by decide) _ _ _ rfl (own_kept9 hown hb5) ⟨wr.heap.size, 0, none⟩ 1 1 [.int .i64 t] rfl rfl (cell_one_new _ _ _) (fun u hu => by rw [List.mem_singleton.1 hu]; rfl) (by unfold maxLen; omega) (by omega) (Nat.le_trans hsz hb5.size) ?_; intro v9 w9 hown9 hgr9 _ hat9)
      go_roundw
      case rel => exact ⟨t + 1, by go_num, by omega, by omega, by rw [show t + 1 - 1 = t by omega, HST.out, List.length_append, HLQ.out, List.map_append]; exact hown9, grown_at hgr9 hx7 (fun e => absurd (own_tagS hown e.symm hx6) (by decide)), Nat.le_trans (Nat.le_trans hsz hb5.size) hgr9.size, (hbel.trans (hb5.mono hbel.size)).grown hgr9 (Nat.le_trans hbel.size hb5.size) (fun j hj => (hown.lt j hj).1)⟩
      case measure => (simp [intOf]) <;> omega
end Go.Proofs.Ytdlngadcgcgenaa
