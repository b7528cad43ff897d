/- The document's Lacks. -/
import Derived.Test.YtdlngadcgcgenaaSp12
import Derived.BigRegion
import Derived.RegionTactic
import Derived.BigQuiet
import Derived.Deep.QuietTactic
import Derived.Deep.MidRow
import Derived.LoopTactic
import Derived.BigFrame
import Derived.Laws.OwnMore
import Derived.WalkKit
import Derived.ProofKit
import Derived.Handy
import Derived.Below
import Derived.Lib.Hide
import Derived.IntWalk
import Derived.Outline
import Derived.WalkLawsBesides
import Derived.WalkSpells
namespace Go.Proofs.Ytdlngadcgcgenaa
open Go.RowKit
attribute [local go_sem] strV
set_option linter.unusedVariables false
theorem lacksF_over {to_ : Int} : ∀ (l : List (Int × Int)) (x : Int), to_ < x → lacksF x to_ l = [] := by
  intro l
  induction l with
  | nil => intro x h; show (if x ≤ to_ then _ else []) = _; rw [if_neg (by omega)]
  | cons r l ih =>
    intro x h
    show (if to_ < r.1 then (if x ≤ to_ then [(x, to_)] else []) else (if x < r.1 then [(x, r.1 - 1)] else []) ++ lacksF (max x (r.2 + 1)) to_ l) = _
    by_cases h1 : to_ < r.1
    · rw [if_pos h1, if_neg (by omega)]
    · rw [if_neg h1, if_neg (by omega), ih _ (by omega)]; rfl
theorem lacksF_step {x to_ : Int} {r : Int × Int} {l : List (Int × Int)} (hr : r.1 ≤ r.2) (hx : x ≤ to_) :
    lacksF x to_ (r :: l) = if r.2 < x then lacksF x to_ l else (if x < r.1 then [(x, min (r.1 - 1) to_)] else []) ++ lacksF (r.2 + 1) to_ l := by
  show (if to_ < r.1 then (if x ≤ to_ then [(x, to_)] else []) else (if x < r.1 then [(x, r.1 - 1)] else []) ++ lacksF (max x (r.2 + 1)) to_ l) = _
  by_cases h1 : to_ < r.1
  · rw [if_pos h1, if_pos hx, if_neg (by omega), if_pos (by omega), lacksF_over _ _ (by omega), show min (r.1 - 1) to_ = to_ by omega]; rfl
  · rw [if_neg h1]
    by_cases h2 : r.2 < x
    · rw [if_pos h2, if_neg (by omega), show max x (r.2 + 1) = x by omega]; rfl
    · rw [if_neg h2, show max x (r.2 + 1) = r.2 + 1 by omega, show min (r.1 - 1) to_ = r.1 - 1 by omega]
theorem drgl_snoc {w : World} {base : Nat} {e : TypeId} {v : Value} {R : List (Int × Int)} {x y : Int} {n : Nat} (hn : R.length = n) (h : w.ownsRow base e 2 v (n + 1) (R.flatMap rgL ++ [.int .i64 x, .int .i64 y])) : w.ownsRow base e 2 v (R ++ [(x, y)]).length ((R ++ [(x, y)]).flatMap rgL) := by
  rw [List.length_append, List.flatMap_append, hn]; exact h
set_option maxRecDepth 100000 in
set_option maxHeartbeats 6400000 in
theorem refLacks_any (a : Option Addr) (n cap : Nat) (l : List (Int × Int)) (f t : Int) (w : World) (hr : RowAt w a (l.flatMap rgL)) (hn : l.length = n) (hm : n ≤ 100000) (hf : f ≤ 9223372036854775807) (ht : -9223372036854775808 ≤ t) (hgd : goodR l = true) :
    Calls Try.prog 24 #[.slice a n cap, .int .i64 f, .int .i64 t] w fun e w' => ∃ v, e = .returned v ∧ w'.ownsRow w.heap.size 70 2 v (lacksR l f t).length ((lacksR l f t).flatMap rgL) ∧ Below w.heap.size w w' := by
  obtain ⟨RES, hRES⟩ : ∃ x, lacksR l f t = x := ⟨_, rfl⟩
  rw [hRES]
  unfold lacksR at hRES
  rw [if_pos hgd] at hRES
  unfold maxN at hRES
  have HGD := Lib.hid hgd
  have HN := Lib.hid hn
  clear hgd hn
  obtain ⟨f0, hf0⟩ : ∃ x, max f 0 = x := ⟨_, rfl⟩
  obtain ⟨t0, ht0⟩ : ∃ x, min t 72057594037927935 = x := ⟨_, rfl⟩
  rw [hf0, ht0] at hRES
  have bf1 : 0 ≤ f0 := by omega
  have bf2 : f0 ≤ 9223372036854775807 := by omega
  have bt1 : t0 ≤ 72057594037927935 := by omega
  have bt2 : -9223372036854775808 ≤ t0 := by omega
  have HRES := Lib.hid hRES
  obtain ⟨iR, hiR, hzR, hsR, hbR⟩ := info_parts Try.infoDr
  clear hRES
  go_enter Try.func24, Try.ntmps24
  go_upto_region 4 with fail
  clear hf0 ht0
  go_loopw [7, 8, 10] (fun v nx i wr => ∃ (k : Nat) (x0 : Int) (R : List (Int × Int)), k ≤ n ∧ i = .int .i64 k ∧ nx = .int .i64 x0 ∧ 0 ≤ x0 ∧ x0 ≤ 9223372036854775807 ∧ wr.ownsRow w.heap.size 70 2 v R.length (R.flatMap rgL) ∧ R.length ≤ k ∧ Hid (R ++ lacksF x0 t0 (l.drop k) = RES) ∧ Below w.heap.size w wr) (fun _ _ i _ => n - (intOf i).toNat)
  case atStart => exact ⟨0, f0, [], Nat.zero_le _, rfl, rfl, bf1, bf2, World.ownsRow_nil _ _ _ _, Nat.zero_le _, Lib.hid HRES.out, Below.refl _ _⟩
  case round =>
    obtain ⟨k, x0, R, hk, rfl, rfl, hx1, hx2, hown, hRk, HG, hbel⟩ := hrel
    obtain ⟨nR, hnR⟩ : ∃ x, R.length = x := ⟨_, rfl⟩
    rw [hnR] at hown hRk
    have HNR := Lib.hid hnR
    clear hnR
    by_cases h9 : x0 ≤ t0
    rotate_left
    · have e9 : decide (x0 ≤ t0) = false := decide_eq_false h9
      have HG : Hid (R = RES) := Lib.hid (by have h := HG.out; rw [lacksF_over _ _ (by omega), List.append_nil] at h; exact h)
      by_cases hlt : k < n
      · have d9 : decide ((k : Int) < (n : Int)) = true := decide_eq_true (by omega)
        have d9n : decide (k < n) = true := decide_eq_true hlt
        go_wp2
        go_ret
        exact ⟨_, rfl, by rw [← HG.out, HNR.out]; exact hown, hbel⟩
      · have d9 : decide ((k : Int) < (n : Int)) = false := decide_eq_false (by omega)
        have d9n : decide (k < n) = false := decide_eq_false hlt
        go_wp2
        go_ret
        exact ⟨_, rfl, by rw [← HG.out, HNR.out]; exact hown, hbel⟩
    have e9 : decide (x0 ≤ t0) = true := decide_eq_true h9
    by_cases hlt : k < n
    rotate_left
    · have d9 : decide ((k : Int) < (n : Int)) = false := decide_eq_false (by omega)
      have d9n : decide (k < n) = false := decide_eq_false hlt
      have HG : Hid (R ++ [(x0, t0)] = RES) := Lib.hid (by rw [← HG.out, List.drop_of_length_le (by rw [HN.out]; omega)]; show _ = R ++ (if x0 ≤ t0 then _ else _); rw [if_pos h9])
      have hb5 : Below wr.heap.size wr (wr.alloc (.cells #[.int .i64 (x0), .int .i64 (t0)] 70)) := Below.alloc (Below.refl _ _) (Nat.le_refl _) _
      have hown0 := own_kept9 hown hb5
      go_wp2_with (at_builtin; refine wpList_append_own_at _ rfl (.tmp 62) (.tmp 66) 36 rfl w.heap.size 70 iR (.agg #[.int .i64 0, .int .i64 0]) 2 16 Try.underlying36 hiR hzR hsR hbR rfl (by decide) _ _ _ rfl hown0 ⟨wr.heap.size, 0, none⟩ 1 1 [.int .i64 (x0), .int .i64 (t0)] rfl rfl (cell_two_new _ _ _ _) (two_one _ _) (by unfold maxLen; omega) (by omega) (Nat.le_trans hbel.size hb5.size) ?_; intro v9 w9 hown9 hgr9 _ hat9)
      go_ret
      exact ⟨_, rfl, by rw [← HG.out]; exact drgl_snoc HNR.out hown9, (hbel.trans (hb5.mono hbel.size)).grown hgr9 (Nat.le_trans hbel.size hb5.size) (fun j hj => (hown0.lt j hj).1)⟩
    have d9 : decide ((k : Int) < (n : Int)) = true := decide_eq_true (by omega)
    have d9n : decide (k < n) = true := decide_eq_true hlt
    have hkl : k < l.length := by rw [HN.out]; exact hlt
    obtain ⟨b1, o1, rfl, hb1, hg1⟩ := rg_range (hr.below hbel) hkl
    have hkm := List.getElem?_eq_getElem hkl
    have hdr := List.drop_eq_getElem_cons hkl
    obtain ⟨⟨x, y⟩, hxy⟩ : ∃ p, l[k] = p := ⟨_, rfl⟩
    rw [hxy] at hg1 hkm hdr
    have c0 : wr.cell? ⟨b1, o1 + k * 2, none⟩ = some (.int .i64 x) := hg1 0 _ rfl
    have c1 : wr.cell? ⟨b1, o1 + k * 2 + 1, none⟩ = some (.int .i64 y) := hg1 1 _ rfl
    have n0 : (0 : Int) ≤ (k : Int) := by omega
    have n1 : (k : Int) < (n : Int) := by omega
    have n2 : ((k : Nat) : Int).toNat = k := by omega
    have hgk := good_take HGD.out hkm
    unfold maxN at hgk
    simp only [] at hgk
    obtain ⟨hk1, hk2, hk3⟩ := hgk
    have HG : Hid (R ++ (if y < x0 then lacksF x0 t0 (l.drop (k + 1)) else (if x0 < x then [(x0, min (x - 1) t0)] else []) ++ lacksF (y + 1) t0 (l.drop (k + 1))) = RES) := Lib.hid (by have h := HG.out; rw [hdr, lacksF_step hk2 h9] at h; exact h)
    have HXY := Lib.hid hxy
    clear hkm hdr hg1 hxy
    by_cases h1 : y < x0
    · have f1 : decide (y < x0) = true := decide_eq_true h1
      rw [if_pos h1] at HG
      go_wp2
      go_roundw
      case rel => exact ⟨k + 1, x0, R, by omega, by go_num, rfl, hx1, hx2, by rw [HNR.out]; exact hown, by rw [HNR.out]; omega, HG, hbel⟩
      case measure => (simp [intOf]) <;> omega
    have f1 : decide (y < x0) = false := decide_eq_false h1
    rw [if_neg h1] at HG
    by_cases h2 : x0 < x
    · have f2 : decide (x0 < x) = true := decide_eq_true h2
      rw [if_pos h2, ← List.append_assoc] at HG
      obtain ⟨m, hm9⟩ : ∃ m, min (x - 1) t0 = m := ⟨_, rfl⟩
      rw [hm9] at HG
      have HG := Lib.hid HG.out
      have bm1 : -9223372036854775808 ≤ m := by omega
      have bm2 : m ≤ 9223372036854775807 := by omega
      have c7 : ∀ (u v : Value) (q : Nat), (wr.alloc (.cells #[u, v] 70)).cell? ⟨b1, q, none⟩ = wr.cell? ⟨b1, q, none⟩ := fun u v q => (Below.alloc (Below.refl wr.heap.size wr) (Nat.le_refl _) _).cell (p := ⟨b1, q, none⟩) hb1
      have hb5 : Below wr.heap.size wr (wr.alloc (.cells #[.int .i64 x0, .int .i64 m] 70)) := Below.alloc (Below.refl _ _) (Nat.le_refl _) _
      have hown0 := own_kept9 hown hb5
      go_upto_region 9 with (at_builtin; refine wpList_append_own_at _ rfl (.tmp 40) (.tmp 51) 36 rfl w.heap.size 70 iR (.agg #[.int .i64 0, .int .i64 0]) 2 16 Try.underlying36 hiR hzR hsR hbR rfl (by decide) _ _ _ rfl hown0 ⟨wr.heap.size, 0, none⟩ 1 1 [.int .i64 (x0), .int .i64 (m)] rfl rfl (cell_two_new _ _ _ _) (two_one _ _) (by unfold maxLen; omega) (by omega) (Nat.le_trans hbel.size hb5.size) ?_; intro v9 w9 hown9 hgr9 _ hat9)
      have hbel9 : Below w.heap.size w w9 := (hbel.trans (hb5.mono hbel.size)).grown hgr9 (Nat.le_trans hbel.size hb5.size) (fun j hj => (hown0.lt j hj).1)
      obtain ⟨b2, o2, e2, _, hg2⟩ := rg_range (hr.below hbel9) hkl
      simp only [Option.some.injEq, Addr.mk.injEq, and_true] at e2
      obtain ⟨rfl, rfl⟩ := e2
      rw [HXY.out] at hg2
      have c9 : w9.cell? ⟨b1, o1 + k * 2 + 1, none⟩ = some (.int .i64 y) := hg2 1 _ rfl
      clear hg2 c7
      go_wp2
      go_roundw
      case rel => exact ⟨k + 1, y + 1, R ++ [(x0, m)], by omega, by go_num, rfl, by omega, by omega, drgl_snoc HNR.out hown9, by rw [List.length_append, HNR.out]; show nR + 1 ≤ k + 1; omega, HG, hbel9⟩
      case measure => (simp [intOf]) <;> omega
    have f2 : decide (x0 < x) = false := decide_eq_false h2
    rw [if_neg h2, List.nil_append] at HG
    go_wp2
    go_roundw
    case rel => exact ⟨k + 1, y + 1, R, by omega, by go_num, rfl, by omega, by omega, by rw [HNR.out]; exact hown, by rw [HNR.out]; omega, HG, hbel⟩
    case measure => (simp [intOf]) <;> omega
end Go.Proofs.Ytdlngadcgcgenaa
