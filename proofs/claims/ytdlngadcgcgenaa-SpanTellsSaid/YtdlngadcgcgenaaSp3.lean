/- span.Lacks, Of. -/
import Derived.Test.YtdlngadcgcgenaaSp2
import Derived.BigRegion
import Derived.RegionTactic
import Derived.BigQuiet
import Derived.Deep.QuietTactic
import Derived.Deep.MidRow
import Derived.LoopTactic
import Derived.BigFrame
import Derived.Laws.OwnMore
import Derived.WalkKit
import Derived.ProofKit
import Derived.Handy
import Derived.Below
import Derived.Lib.Hide
import Derived.IntWalk
import Derived.Outline
import Derived.WalkLawsBesides
import Derived.WalkSpells
namespace Go.Proofs.Ytdlngadcgcgenaa
open Go.RowKit
attribute [local go_sem] strV
set_option linter.unusedVariables false
theorem cell_two_new (w : World) (x y : Value) (t : TypeId) : ∀ j u, [x, y][j]? = some u → (w.alloc (.cells #[x, y] t)).cell? ((⟨w.heap.size, 0, none⟩ : Addr).add j) = some u := by
  intro j u hj
  match j, hj with
  | 0, hj => simp at hj; subst hj; simp [Addr.add]
  | 1, hj => simp at hj; subst hj; simp [Addr.add]
theorem two_one (x y : Int) : ∀ u ∈ [Value.int .i64 x, Value.int .i64 y], u.oneCell' = true := by
  intro u hu
  simp at hu
  rcases hu with rfl | rfl <;> rfl
theorem rg_flat_len (l : List (Int × Int)) : (l.flatMap rgL).length = l.length * 2 := flat_length rgL 2 rgL_len l
theorem rg_snoc {w : World} {base : Nat} {v : Value} {R : List (Int × Int)} {x y : Int} {n : Nat} (hn : R.length = n) (h : w.ownsRow base 62 2 v (n + 1) (R.flatMap rgL ++ [.int .i64 x, .int .i64 y])) : w.ownsRow base 62 2 v (R ++ [(x, y)]).length ((R ++ [(x, y)]).flatMap rgL) := by
  rw [List.length_append, List.flatMap_append, hn]; exact h
def lacksR (l : List (Int × Int)) (f t : Int) : List (Int × Int) := if goodR l = true then lacksF (max f 0) (min t maxN) l else []
set_option maxRecDepth 100000 in
set_option maxHeartbeats 6400000 in
theorem lacks_any (a : Option Addr) (n cap : Nat) (l : List (Int × Int)) (f t : Int) (w : World) (hr : RowAt w a (l.flatMap rgL)) (hn : l.length = n) (hm : n ≤ 100000) (hf : f ≤ 9223372036854775807) (ht : -9223372036854775808 ≤ t) :
    Calls Try.prog 10 #[.slice a n cap, .int .i64 f, .int .i64 t] w fun e w' => ∃ v, e = .returned v ∧ w'.ownsRow w.heap.size 62 2 v (lacksR l f t).length ((lacksR l f t).flatMap rgL) ∧ Below w.heap.size w w' := by
  have CG := fun W (hb : Below w.heap.size w W) => good_any a n cap l W (hr.below hb) hn (by unfold maxLen; omega)
  obtain ⟨RES, hRES⟩ : ∃ x, lacksR l f t = x := ⟨_, rfl⟩
  rw [hRES]
  unfold lacksR at hRES
  obtain ⟨gd, hgd⟩ : ∃ r, goodR l = r := ⟨_, rfl⟩
  simp only [hgd] at CG hRES
  have HGD := Lib.hid hgd
  have HN := Lib.hid hn
  clear hgd hn
  cases gd
  · rw [if_neg Bool.false_ne_true] at hRES
    subst hRES
    go_enter Try.func10, Try.ntmps10
    go_wp2_with (go_at_call 9; refine (CG _ (Below.refl _ _)).mono ?_; rintro e w2 ⟨rfl, hb⟩)
    go_ret
    exact ⟨_, rfl, World.ownsRow_nil _ _ _ _, hb⟩
  rw [if_pos rfl] at hRES
  unfold maxN at hRES
  obtain ⟨f0, hf0⟩ : ∃ x, max f 0 = x := ⟨_, rfl⟩
  obtain ⟨t0, ht0⟩ : ∃ x, min t 72057594037927935 = x := ⟨_, rfl⟩
  rw [hf0, ht0] at hRES
  have bf1 : 0 ≤ f0 := by omega
  have bf2 : f0 ≤ 9223372036854775807 := by omega
  have bt1 : t0 ≤ 72057594037927935 := by omega
  have HRES := Lib.hid hRES
  obtain ⟨iR, hiR, hzR, hsR, hbR⟩ := info_parts Try.infoRg
  clear hRES
  go_enter Try.func10, Try.ntmps10
  go_upto_region 6 with (go_at_call 9; refine (CG _ (Below.refl _ _)).mono ?_; rintro e w2 ⟨rfl, hbel⟩)
  clear hf0 ht0
  go_loopw [7, 8, 20] (fun nx v i wr => ∃ (k : Nat) (x0 : Int) (R : List (Int × Int)), k ≤ n ∧ i = .int .i64 k ∧ nx = .int .i64 x0 ∧ 0 ≤ x0 ∧ x0 ≤ 9223372036854775807 ∧ wr.ownsRow w.heap.size 62 2 v R.length (R.flatMap rgL) ∧ R.length ≤ k ∧ Hid (R ++ lacksF x0 t0 (l.drop k) = RES) ∧ w.heap.size ≤ wr.heap.size ∧ Below w.heap.size w wr) (fun _ _ i _ => n - (intOf i).toNat)
  case atStart => exact ⟨0, f0, [], Nat.zero_le _, rfl, rfl, bf1, bf2, World.ownsRow_nil _ _ _ _, Nat.zero_le _, Lib.hid HRES.out, hbel.size, hbel⟩
  case round =>
    clear hbel
    obtain ⟨k, x0, R, hk, rfl, rfl, hx1, hx2, hown, hRk, HG, hsz, hbel⟩ := hrel
    obtain ⟨nR, hnR⟩ : ∃ x, R.length = x := ⟨_, rfl⟩
    rw [hnR] at hown hRk
    have HNR := Lib.hid hnR
    clear hnR
    by_cases hlt : k < n
    rotate_left
    · have d9 : decide ((k : Int) < (n : Int)) = false := decide_eq_false (by omega)
      have d9n : decide (k < n) = false := decide_eq_false hlt
      have HG : Hid (R ++ (if x0 ≤ t0 then [(x0, t0)] else []) = RES) := Lib.hid (by rw [← HG.out, List.drop_of_length_le (by rw [HN.out]; omega)]; rfl)
      by_cases h9 : x0 ≤ t0
      · have e9 : decide (x0 ≤ t0) = true := decide_eq_true h9
        rw [if_pos h9] at HG
        have hb5 : Below wr.heap.size wr (wr.alloc (.cells #[.int .i64 x0, .int .i64 t0] 62)) := Below.alloc (Below.refl _ _) (Nat.le_refl _) _
        have hown0 := own_kept9 hown hb5
        go_wp2_with (at_builtin; refine wpList_append_own_at _ rfl (.tmp 49) (.tmp 53) 22 rfl w.heap.size 62 iR (.agg #[.int .i64 0, .int .i64 0]) 2 16 Try.underlying22 hiR hzR hsR hbR rfl (by decide) _ _ _ rfl hown0 ⟨wr.heap.size, 0, none⟩ 1 1 [.int .i64 (x0), .int .i64 (t0)] rfl rfl (cell_two_new _ _ _ _) (two_one _ _) (by unfold maxLen; omega) (by omega) (Nat.le_trans hsz hb5.size) ?_; intro v9 w9 hown9 hgr9 _ hat9)
        go_ret
        exact ⟨_, rfl, by rw [← HG.out]; exact rg_snoc HNR.out hown9, (hbel.trans (hb5.mono hbel.size)).grown hgr9 (Nat.le_trans hbel.size hb5.size) (fun j hj => (hown0.lt j hj).1)⟩
      · have e9 : decide (x0 ≤ t0) = false := decide_eq_false h9
        rw [if_neg h9, List.append_nil] at HG
        go_wp2
        go_ret
        exact ⟨_, rfl, by rw [← HG.out, HNR.out]; exact hown, hbel⟩
    have d9 : decide ((k : Int) < (n : Int)) = true := decide_eq_true (by omega)
    have d9n : decide (k < n) = true := decide_eq_true hlt
    have hkl : k < l.length := by rw [HN.out]; exact hlt
    obtain ⟨b1, o1, rfl, hb1, hg1⟩ := rg_range (hr.below hbel) hkl
    have hkm := List.getElem?_eq_getElem hkl
    have hdr := List.drop_eq_getElem_cons hkl
    obtain ⟨⟨x, y⟩, hxy⟩ : ∃ p, l[k] = p := ⟨_, rfl⟩
    rw [hxy] at hg1 hkm hdr
    have hg1 : wr.rangeAt b1 (o1 + k * 2) (#[.int .i64 x, .int .i64 y] : Array Value).toList := hg1
    clear hxy
    have n0 : (0 : Int) ≤ (k : Int) := by omega
    have n1 : (k : Int) < (n : Int) := by omega
    have n2 : ((k : Nat) : Int).toNat = k := by omega
    have HG : Hid (R ++ lacksF x0 t0 ((x, y) :: l.drop (k + 1)) = RES) := Lib.hid (by rw [← hdr]; exact HG.out)
    have hgk := good_take HGD.out hkm
    unfold maxN at hgk
    simp only [] at hgk
    obtain ⟨hk1, hk2, hk3⟩ := hgk
    clear hkm hdr
    go_upto_region 8 with (first | (refine wpList_load_mid rfl 62 (.tmp 22) rfl b1 _ rfl ((#[.int .i64 x, .int .i64 y] : Array Value).toList) _ hg1 Try.underlying62 rfl (by rfl) ?_; rw [Array.toArray_toList]) | fail)
    refine wp_nameE _ (fun W6 hX => ?_)
    have hb6 : Below wr.heap.size wr W6 := by rw [hX]; exact Below.alloc (Below.refl _ _) (Nat.le_refl _) _
    have hszg : w.heap.size ≤ wr.heap.size := hbel.size
    have hx6 : W6.heap[wr.heap.size]? = some (.cells #[.int .i64 x, .int .i64 y] 62 (0, 0)) := by rw [hX]; exact heap_push _ _ _
    have hbel := hbel.trans (hb6.mono hbel.size)
    obtain ⟨g6, hg6⟩ : ∃ g, wr.heap.size = g := ⟨_, rfl⟩
    rw [hg6] at hx6 hszg
    simp only [hg6]
    clear hX hg1
    have c0 : W6.cell? ⟨g6, 0, none⟩ = some (.int .i64 x) := cell_heap hx6 0
    have c1 : W6.cell? ⟨g6, 1, none⟩ = some (.int .i64 y) := cell_heap hx6 1
    have hown0l : ∀ j, u8.ownBlock = some j → j < g6 := fun j hj => by rw [← hg6]; exact (hown.lt j hj).2
    have hown := own_kept9 hown hb6
    have hsz := Nat.le_trans hsz hb6.size
    clear hb6 hg6
    by_cases h1 : t0 < x
    · have e1 : decide (t0 < x) = true := decide_eq_true h1
      have HG : Hid (R ++ (if x0 ≤ t0 then [(x0, t0)] else []) = RES) := Lib.hid (by
        rw [← HG.out]
        show _ = R ++ (if t0 < x then _ else _)
        rw [if_pos h1])
      by_cases h9 : x0 ≤ t0
      · have e9 : decide (x0 ≤ t0) = true := decide_eq_true h9
        rw [if_pos h9] at HG
        have hb5 : Below W6.heap.size W6 (W6.alloc (.cells #[.int .i64 x0, .int .i64 t0] 62)) := Below.alloc (Below.refl _ _) (Nat.le_refl _) _
        have hown0 := own_kept9 hown hb5
        go_wp2_with (at_builtin; refine wpList_append_own_at _ rfl (.tmp 49) (.tmp 53) 22 rfl w.heap.size 62 iR (.agg #[.int .i64 0, .int .i64 0]) 2 16 Try.underlying22 hiR hzR hsR hbR rfl (by decide) _ _ _ rfl hown0 ⟨W6.heap.size, 0, none⟩ 1 1 [.int .i64 (x0), .int .i64 (t0)] rfl rfl (cell_two_new _ _ _ _) (two_one _ _) (by unfold maxLen; omega) (by omega) (Nat.le_trans hsz hb5.size) ?_; intro v9 w9 hown9 hgr9 _ hat9)
        go_ret
        exact ⟨_, rfl, by rw [← HG.out]; exact rg_snoc HNR.out hown9, (hbel.trans (hb5.mono hbel.size)).grown hgr9 (Nat.le_trans hbel.size hb5.size) (fun j hj => (hown0.lt j hj).1)⟩
      · have e9 : decide (x0 ≤ t0) = false := decide_eq_false h9
        rw [if_neg h9, List.append_nil] at HG
        go_wp2
        go_ret
        exact ⟨_, rfl, by rw [← HG.out, HNR.out]; exact hown, hbel⟩
    have e1 : decide (t0 < x) = false := decide_eq_false h1
    have hst : lacksF x0 t0 ((x, y) :: l.drop (k + 1)) = (if x0 < x then [(x0, x - 1)] else []) ++ lacksF (max x0 (y + 1)) t0 (l.drop (k + 1)) := by
      show (if t0 < x then _ else _) = _
      rw [if_neg h1]
    rw [show (R ++ lacksF x0 t0 ((x, y) :: l.drop (k + 1)) = RES) = (R ++ ((if x0 < x then [(x0, x - 1)] else []) ++ lacksF (max x0 (y + 1)) t0 (l.drop (k + 1))) = RES) by rw [hst]] at HG
    obtain ⟨x9, hx9⟩ : ∃ z, max x0 (y + 1) = z := ⟨_, rfl⟩
    rw [hx9] at HG
    have bx1 : 0 ≤ x9 := by omega
    have bx2 : x9 ≤ 9223372036854775807 := by omega
    clear hst
    by_cases h2 : x0 < x
    · have e2 : decide (x0 < x) = true := decide_eq_true h2
      rw [if_pos h2] at HG
      have hb5 : Below W6.heap.size W6 (W6.alloc (.cells #[.int .i64 x0, .int .i64 (x - 1)] 62)) := Below.alloc (Below.refl _ _) (Nat.le_refl _) _
      have q0 := cell_heap hx6 1
      go_upto_region 11 with (at_builtin; refine wpList_append_own_at _ rfl (.tmp 32) (.tmp 38) 22 rfl w.heap.size 62 iR (.agg #[.int .i64 0, .int .i64 0]) 2 16 Try.underlying22 hiR hzR hsR hbR rfl (by decide) _ _ _ rfl (own_kept9 hown hb5) ⟨W6.heap.size, 0, none⟩ 1 1 [.int .i64 (x0), .int .i64 (x - 1)] rfl rfl (cell_two_new _ _ _ _) (two_one _ _) (by unfold maxLen; omega) (by omega) (Nat.le_trans hsz hb5.size) ?_; intro v9 w9 hown9 hgr9 _ hat9)
      have hbel := (hbel.trans (hb5.mono hbel.size)).grown hgr9 (Nat.le_trans hbel.size hb5.size) (fun j hj => (hown.lt j hj).1)
      have hx7 := grown_at hgr9 (cells_of hx6 hb5 (row_lt hx6)) (fun e => by have := (hown0l g6 e.symm); omega)
      have hsz := Nat.le_trans (Nat.le_trans hsz hb5.size) hgr9.size
      have c0 := cell_heap hx7 0
      have c1 : w9.cell? ⟨g6, 1, none⟩ = some (.int .i64 y) := cell_heap hx7 1
      go_wp2
      go_roundw
      case rel => exact ⟨k + 1, x9, R ++ [(x0, x - 1)], by omega, by go_num, rfl, bx1, bx2, rg_snoc HNR.out hown9, by rw [List.length_append, HNR.out]; simp; omega, Lib.hid (by rw [← HG.out, List.append_assoc]), hsz, hbel⟩
      case measure => (simp [intOf]) <;> omega
    · have e2 : decide (x0 < x) = false := decide_eq_false h2
      rw [if_neg h2] at HG
      go_wp2
      go_roundw
      case rel => exact ⟨k + 1, x9, R, by omega, by go_num, rfl, bx1, bx2, by rw [HNR.out]; exact hown, by rw [HNR.out]; omega, Lib.hid HG.out, hsz, hbel⟩
      case measure => (simp [intOf]) <;> omega
end Go.Proofs.Ytdlngadcgcgenaa
