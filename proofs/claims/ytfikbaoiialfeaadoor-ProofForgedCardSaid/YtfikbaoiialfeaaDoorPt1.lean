/- The document's lists of pairs: Good and leaves; pairs taken over, light pairs. -/
import Derived.Test.YtfikbaoiialfeaaDoorGY
import Derived.BigRegion
import Derived.RegionTactic
import Derived.BigQuiet
import Derived.Deep.QuietTactic
import Derived.Deep.MidRow
import Derived.LoopTactic
import Derived.BigFrame
import Derived.Maps.AppendAt
import Derived.OwnWalk
import Derived.WalkKit
import Derived.ProofKit
import Derived.Handy
import Derived.Below
import Derived.Lib.Hide
import Derived.IntWalk
import Derived.Outline
import Derived.WalkLawsBesides
import Derived.WalkSpells
namespace Go.Proofs.YtfikbaoiialfeaaDoor
open Go.RowKit
attribute [local go_sem] strV
set_option linter.unusedVariables false
set_option maxRecDepth 100000 in
set_option maxHeartbeats 6400000 in
theorem refGood_any (a : Option Addr) (n cap : Nat) (l : List Pr) (w : World) (hr : RowAt w a (l.flatMap Pr.cells)) (hn : l.length = n) (hcap : n ≤ cap) (hcm : cap ≤ maxLen) :
    Calls Tryd.prog 38 #[.slice a n cap] w fun e w' => e = .returned (.bool (goodL l)) ∧ Below w.heap.size w w' := by
  unfold maxLen at hcm
  obtain ⟨r, hr9⟩ : ∃ r, goodL l = r := ⟨_, rfl⟩
  rw [hr9]
  have HR := Lib.hid hr9
  have HN := Lib.hid hn
  clear hr9 hn
  go_enter Tryd.func38, Tryd.ntmps38
  go_upto_region 2 with fail
  go_loopw [3] (fun i wr => ∃ k : Nat, k ≤ n ∧ i = .int .i64 k ∧ Hid (∀ i, i < k → goodAt l i = true) ∧ Below w.heap.size w wr) (fun i _ => n - (intOf i).toNat)
  case atStart => exact ⟨0, Nat.zero_le _, rfl, Lib.hid (fun i h => by omega), Below.refl _ _⟩
  case round =>
    obtain ⟨k, hk, rfl, HA, hbel⟩ := hrel
    by_cases hlt : k < n
    rotate_left
    · have d9 : decide ((k : Int) < (n : Int)) = false := decide_eq_false (by omega)
      have d9n : decide (k < n) = false := decide_eq_false hlt
      obtain rfl : r = true := by rw [← HR.out]; exact goodL_all (fun i hi => HA.out i (by rw [HN.out] at hi; omega))
      go_wp2
      go_ret
      exact ⟨rfl, hbel⟩
    have d1 : decide ((k : Int) < (n : Int)) = true := decide_eq_true (by omega)
    have d1n : decide (k < n) = true := decide_eq_true hlt
    have hkl : k < l.length := by rw [HN.out]; exact hlt
    obtain ⟨b1, o1, rfl, hb1, hg1⟩ := pr_range (hr.below hbel) hkl
    have hkm := List.getElem?_eq_getElem hkl
    obtain ⟨p, hp9⟩ : ∃ p, l[k] = p := ⟨_, rfl⟩
    rw [hp9] at hg1 hkm
    have HKM := Lib.hid hkm
    have q0 : wr.cell? ⟨b1, o1 + k * 2, none⟩ = some (.string p.k) := hg1 0 _ rfl
    have q1 : wr.cell? ⟨b1, o1 + k * 2 + 1, none⟩ = some (.string p.v) := hg1 1 _ rfl
    clear hp9 hkm hg1
    have n0 : (0 : Int) ≤ (k : Int) := by omega
    have n1 : (k : Int) < (n : Int) := by omega
    have n2 : ((k : Nat) : Int).toNat = k := by omega
    by_cases h1 : p.k.size < 1
    · obtain rfl : r = false := by
        rw [← HR.out]; refine goodL_bad hkl ?_
        unfold goodAt; rw [HKM.out]; simp only []
        rw [show fitsB p.k p.v = false by unfold fitsB; rw [decide_eq_false (show ¬ 0 < p.k.size by omega)]; simp]; rfl
      have e1 : decide ((p.k.size : Int) < 1) = true := decide_eq_true (by omega)
      have e1n : decide (p.k.size < 1) = true := decide_eq_true (by omega)
      clear h1
      go_upto_region 4 with fail
      go_quiet (fail)
      go_wp2
      go_ret
      exact ⟨rfl, hbel.trans ((drewN_below _ _).mono hbel.size)⟩
    have e1 : decide ((p.k.size : Int) < 1) = false := decide_eq_false (by omega)
    have e1n : decide (p.k.size < 1) = false := decide_eq_false (by omega)
    by_cases h2 : 160 < p.k.size
    · obtain rfl : r = false := by
        rw [← HR.out]; refine goodL_bad hkl ?_
        unfold goodAt; rw [HKM.out]; simp only []
        rw [show fitsB p.k p.v = false by unfold fitsB; rw [decide_eq_false (show ¬ p.k.size ≤ 160 by omega)]; simp]; rfl
      have e2 : decide (160 < (p.k.size : Int)) = true := decide_eq_true (by omega)
      have e2n : decide (160 < p.k.size) = true := decide_eq_true (by omega)
      clear h1 h2
      go_upto_region 4 with fail
      go_quiet (fail)
      go_wp2
      go_ret
      exact ⟨rfl, hbel.trans ((drewN_below _ _).mono hbel.size)⟩
    have e2 : decide (160 < (p.k.size : Int)) = false := decide_eq_false (by omega)
    have e2n : decide (160 < p.k.size) = false := decide_eq_false (by omega)
    by_cases h3 : p.v.size < 1
    · obtain rfl : r = false := by
        rw [← HR.out]; refine goodL_bad hkl ?_
        unfold goodAt; rw [HKM.out]; simp only []
        rw [show fitsB p.k p.v = false by unfold fitsB; rw [decide_eq_false (show ¬ 0 < p.v.size by omega)]; simp]; rfl
      have e3 : decide ((p.v.size : Int) < 1) = true := decide_eq_true (by omega)
      have e3n : decide (p.v.size < 1) = true := decide_eq_true (by omega)
      clear h1 h2 h3
      go_upto_region 4 with fail
      go_quiet (fail)
      go_wp2
      go_ret
      exact ⟨rfl, hbel.trans ((drewN_below _ _).mono hbel.size)⟩
    have e3 : decide ((p.v.size : Int) < 1) = false := decide_eq_false (by omega)
    have e3n : decide (p.v.size < 1) = false := decide_eq_false (by omega)
    by_cases h4 : 64 < p.v.size
    · obtain rfl : r = false := by
        rw [← HR.out]; refine goodL_bad hkl ?_
        unfold goodAt; rw [HKM.out]; simp only []
        rw [show fitsB p.k p.v = false by unfold fitsB; rw [decide_eq_false (show ¬ p.v.size ≤ 64 by omega)]; simp]; rfl
      have e4 : decide (64 < (p.v.size : Int)) = true := decide_eq_true (by omega)
      have e4n : decide (64 < p.v.size) = true := decide_eq_true (by omega)
      clear h1 h2 h3 h4
      go_upto_region 4 with fail
      go_quiet (fail)
      go_wp2
      go_ret
      exact ⟨rfl, hbel.trans ((drewN_below _ _).mono hbel.size)⟩
    have e4 : decide (64 < (p.v.size : Int)) = false := decide_eq_false (by omega)
    have e4n : decide (64 < p.v.size) = false := decide_eq_false (by omega)
    have HF : Hid (fitsB p.k p.v = true) := Lib.hid (by
      unfold fitsB
      rw [decide_eq_true (show 0 < p.k.size by omega), decide_eq_true (show p.k.size ≤ 160 by omega), decide_eq_true (show 0 < p.v.size by omega), decide_eq_true (show p.v.size ≤ 64 by omega)]; rfl)
    clear h1 h2 h3 h4
    by_cases hk0 : k = 0
    · have e0 : decide ((0 : Int) < (k : Int)) = false := decide_eq_false (by omega)
      have e0n : decide (0 < k) = false := decide_eq_false (by omega)
      have HGD : Hid (goodAt l k = true) := Lib.hid (by unfold goodAt; rw [HKM.out]; simp only []; rw [HF.out, hk0]; rfl)
      clear hk0
      go_upto_region 4 with fail
      go_quiet (fail)
      go_wp2
      go_roundw
      case rel => exact ⟨k + 1, by omega, by go_num, Lib.hid (fun i hi => by
          rcases Nat.lt_or_ge i k with h9 | h9
          · exact HA.out i h9
          · obtain rfl : i = k := by omega
            exact HGD.out), hbel.trans ((drewN_below _ _).mono hbel.size)⟩
      case measure => (simp [intOf]) <;> omega
    have e0 : decide ((0 : Int) < (k : Int)) = true := decide_eq_true (by omega)
    have e0n : decide (0 < k) = true := decide_eq_true (by omega)
    obtain ⟨k9, hk9⟩ : ∃ q, k = q + 1 := ⟨k - 1, by omega⟩
    have hkl9 : k9 < l.length := by omega
    obtain ⟨b2, o2, he2, _, hg2⟩ := pr_range (hr.below hbel) hkl9
    simp only [Option.some.injEq, Addr.mk.injEq, and_true] at he2
    obtain ⟨rfl, rfl⟩ := he2
    have hkm9 := List.getElem?_eq_getElem hkl9
    obtain ⟨q, hq9⟩ : ∃ q, l[k9] = q := ⟨_, rfl⟩
    rw [hq9] at hg2 hkm9
    have q2 : wr.cell? ⟨b1, o1 + k9 * 2, none⟩ = some (.string q.k) := hg2 0 _ rfl
    obtain ⟨ls, hls⟩ : ∃ b, lessK q.k p.k = b := ⟨_, rfl⟩
    have hle : Op.bytesLess q.k.toList p.k.toList = ls := by rw [ByteArray.toList_eq, ByteArray.toList_eq]; exact hls
    have hga : goodAt l k = ls := by
      unfold goodAt
      rw [HKM.out]
      simp only []
      rw [HF.out, beq_eq_false_iff_ne.2 hk0, hk9, Nat.add_sub_cancel, hkm9]
      simp only []
      rw [hls]
      rfl
    have HGA := Lib.hid hga
    have hsub : (k : Int) - 1 = ((k9 : Nat) : Int) := by omega
    have hs1 : (0 : Int) ≤ (k : Int) - 1 := by omega
    have hs2 : (k : Int) - 1 ≤ 9223372036854775807 := by omega
    have m0 : (0 : Int) ≤ (k9 : Int) := by omega
    have m1 : (k9 : Int) < (n : Int) := by omega
    have m2 : ((k9 : Nat) : Int).toNat = k9 := by omega
    clear hk9 hls hga hkm9 hq9 hg2 hk0
    cases ls
    · obtain rfl : r = false := by rw [← HR.out]; exact goodL_bad hkl HGA.out
      go_upto_region 4 with fail
      go_quiet (fail)
      go_wp2
      go_ret
      exact ⟨rfl, hbel.trans ((drewN_below _ _).mono hbel.size)⟩
    · go_upto_region 4 with fail
      go_quiet (fail)
      go_wp2
      go_roundw
      case rel => exact ⟨k + 1, by omega, by go_num, Lib.hid (fun i hi => by
          rcases Nat.lt_or_ge i k with h9 | h9
          · exact HA.out i h9
          · obtain rfl : i = k := by omega
            exact HGA.out), hbel.trans ((drewN_below _ _).mono hbel.size)⟩
      case measure => (simp [intOf]) <;> omega
set_option maxRecDepth 100000 in
set_option maxHeartbeats 6400000 in
theorem refLeaves_any (a : Option Addr) (n cap : Nat) (l : List Pr) (w : World) (hr : RowAt w a (l.flatMap Pr.cells)) (hn : l.length = n) (hn6 : n ≤ 1000000) (hcap : n ≤ cap) (hs : ∀ p ∈ l, p.k.size ≤ 300000 ∧ p.v.size ≤ 300000) :
    Calls Tryd.prog 78 #[.slice a n cap] w fun e w' => ∃ v, e = .returned v ∧ w'.ownsRow w.heap.size 25 32 v n (((l).map leafH).flatMap H32.cells) ∧ Below w.heap.size w w' := by
  have HN := Lib.hid hn
  have HS := Lib.hid hs
  clear hs
  obtain ⟨i0, hi, hz0, hz1, hz2⟩ := info_parts Tryd.infoH
  clear hn
  go_enter Tryd.func78, Tryd.ntmps78
  go_upto_region 3 with fail
  go_loopw [3, 4] (fun v i wr => ∃ k : Nat, k ≤ n ∧ i = .int .i64 k ∧ wr.ownsRow w.heap.size 25 32 v k (((l.take k).map leafH).flatMap H32.cells) ∧ Below w.heap.size w wr) (fun _ i _ => n - (intOf i).toNat)
  case atStart => exact ⟨0, Nat.zero_le _, rfl, ⟨rfl, .inl ⟨rfl, rfl⟩⟩, Below.refl _ _⟩
  case round =>
    rename_i sv _ _
    obtain ⟨k, hk, rfl, hown, hbel⟩ := hrel
    by_cases hlt : k < n
    rotate_left
    · have d9 : decide ((k : Int) < (n : Int)) = false := decide_eq_false (by omega)
      have d9n : decide (k < n) = false := decide_eq_false hlt
      rw [List.take_of_length_le (by rw [HN.out]; omega)] at hown
      obtain rfl : k = n := by omega
      obtain ⟨a9, c9, rfl, _⟩ := own_sliceH hown
      go_wp2
      go_ret
      exact ⟨_, rfl, hown, hbel⟩
    have d1 : decide ((k : Int) < (n : Int)) = true := decide_eq_true (by omega)
    have d1n : decide (k < n) = true := decide_eq_true hlt
    have hkl : k < l.length := by rw [HN.out]; exact hlt
    obtain ⟨b1, o1, rfl, hb1, hg1⟩ := pr_range (hr.below hbel) hkl
    have hsz := HS.out _ (List.getElem_mem hkl)
    have htk : (((l.take (k + 1)).map leafH).flatMap H32.cells) = ((l.take k).map leafH).flatMap H32.cells ++ (leafH l[k]).cells := by
      rw [List.take_succ_eq_append_getElem hkl, List.map_append, List.flatMap_append]
      simp
    obtain ⟨p, hp9⟩ : ∃ p, l[k] = p := ⟨_, rfl⟩
    rw [hp9] at hg1 hsz htk
    have HTK := Lib.hid htk
    have CLf := fun W (_ : Below wr.heap.size wr W) => refLeaf_any p.k p.v W hsz.1 hsz.2
    obtain ⟨q, hq9⟩ : ∃ q : H32, leafH p = q := ⟨_, rfl⟩
    have hqe : leafF p.k p.v = q.1 := by rw [← hq9]; rfl
    simp only [hqe] at CLf
    rw [hq9] at HTK
    clear hp9 htk hq9 hqe hsz
    obtain ⟨a2, c2, rfl, _⟩ := own_sliceH hown
    have q0 : wr.cell? ⟨b1, o1 + k * 2, none⟩ = some (.string p.k) := hg1 0 _ rfl
    have q1 : wr.cell? ⟨b1, o1 + k * 2 + 1, none⟩ = some (.string p.v) := hg1 1 _ rfl
    clear hg1
    have n0 : (0 : Int) ≤ (k : Int) := by omega
    have n1 : (k : Int) < (n : Int) := by omega
    have n2 : ((k : Nat) : Int).toNat = k := by omega
    go_upto_region 5 with fail
    refine wp_region_facts_chain 13 (by decide) [Fact.eq (.slice a2 k c2), Fact.eq (.slice (some ⟨b1, o1, none⟩) n cap), Fact.eq (.int .i64 (k : Int)), Fact.eq (.pointer (some ⟨b1, o1 + k * 2, none⟩)), Fact.eq (.pointer (some ⟨b1, o1 + k * 2, none⟩)), Fact.eq (.string p.k), Fact.eq (.slice (some ⟨b1, o1, none⟩) n cap), Fact.eq (.int .i64 (k : Int)), Fact.eq (.pointer (some ⟨b1, o1 + k * 2, none⟩)), Fact.eq (.pointer (some ⟨b1, o1 + k * 2 + 1, none⟩)), Fact.eq (.string p.v), Fact.eq (.agg (hrow q.1)), Fact.row (1) (q.cells)] (by kernel_rfl) (by kernel_rfl) (by kernel_rfl) (by kernel_rfl) (by kernel_rfl) (by kernel_rfl) (by kernel_rfl) (fun x => by simp only [List.take_succ_cons, List.take_zero, fillFrom, Act.put, List.setIfInBounds_toArray, List.set_cons_succ, List.set_cons_zero]; rfl) ?_ ?_
    · refine ⟨?_, ?_, ?_, ?_, ?_, ?_, ?_, ?_, ?_, ?_, ?_, ?_, ?_, trivial⟩
      · intro x w' hbw hd
        clear hd
        go_wp2_with fail
        exact frPost_mk rfl (by repeat (first | assumption | exact Below.refl _ _ | refine bch ?_ (by assumption) | refine Below.alloc ?_ (by simp) _)) rfl
      · intro x w' hbw hd
        clear hd
        go_wp2_with fail
        exact frPost_mk rfl (by repeat (first | assumption | exact Below.refl _ _ | refine bch ?_ (by assumption) | refine Below.alloc ?_ (by simp) _)) rfl
      · intro x w' hbw hd
        clear hd
        go_wp2_with fail
        exact frPost_mk rfl (by repeat (first | assumption | exact Below.refl _ _ | refine bch ?_ (by assumption) | refine Below.alloc ?_ (by simp) _)) rfl
      · intro x w' hbw hd
        have d1 : x 1 = .slice (some ⟨b1, o1, none⟩) n cap := hd 1 rfl
        have d2 : x 2 = .int .i64 (k : Int) := hd 2 rfl
        clear hd
        go_wp2_with fail
        exact frPost_mk rfl (by repeat (first | assumption | exact Below.refl _ _ | refine bch ?_ (by assumption) | refine Below.alloc ?_ (by simp) _)) (by first | rfl | (show Value.pointer _ = Value.pointer _; simp))
      · intro x w' hbw hd
        have d3 : x 3 = .pointer (some ⟨b1, o1 + k * 2, none⟩) := hd 3 rfl
        clear hd
        go_wp2_with fail
        exact frPost_mk rfl (by repeat (first | assumption | exact Below.refl _ _ | refine bch ?_ (by assumption) | refine Below.alloc ?_ (by simp) _)) rfl
      · intro x w' hbw hd
        have d4 : x 4 = .pointer (some ⟨b1, o1 + k * 2, none⟩) := hd 4 rfl
        clear hd
        have cq : w'.cell? ⟨b1, o1 + k * 2, none⟩ = some (.string p.k) := by rw [hbw.cell (p := ⟨b1, o1 + k * 2, none⟩) hb1]; exact q0
        go_wp2_with (first | fail)
        exact frPost_mk rfl (by repeat (first | assumption | exact Below.refl _ _ | refine bch ?_ (by assumption) | refine Below.alloc ?_ (by simp) _)) rfl
      · intro x w' hbw hd
        clear hd
        go_wp2_with fail
        exact frPost_mk rfl (by repeat (first | assumption | exact Below.refl _ _ | refine bch ?_ (by assumption) | refine Below.alloc ?_ (by simp) _)) rfl
      · intro x w' hbw hd
        clear hd
        go_wp2_with fail
        exact frPost_mk rfl (by repeat (first | assumption | exact Below.refl _ _ | refine bch ?_ (by assumption) | refine Below.alloc ?_ (by simp) _)) rfl
      · intro x w' hbw hd
        have d6 : x 6 = .slice (some ⟨b1, o1, none⟩) n cap := hd 6 rfl
        have d7 : x 7 = .int .i64 (k : Int) := hd 7 rfl
        clear hd
        go_wp2_with fail
        exact frPost_mk rfl (by repeat (first | assumption | exact Below.refl _ _ | refine bch ?_ (by assumption) | refine Below.alloc ?_ (by simp) _)) (by first | rfl | (show Value.pointer _ = Value.pointer _; simp))
      · intro x w' hbw hd
        have d8 : x 8 = .pointer (some ⟨b1, o1 + k * 2, none⟩) := hd 8 rfl
        clear hd
        go_wp2_with fail
        exact frPost_mk rfl (by repeat (first | assumption | exact Below.refl _ _ | refine bch ?_ (by assumption) | refine Below.alloc ?_ (by simp) _)) rfl
      · intro x w' hbw hd
        have d9 : x 9 = .pointer (some ⟨b1, o1 + k * 2 + 1, none⟩) := hd 9 rfl
        clear hd
        have cq : w'.cell? ⟨b1, o1 + k * 2 + 1, none⟩ = some (.string p.v) := by rw [hbw.cell (p := ⟨b1, o1 + k * 2 + 1, none⟩) hb1]; exact q1
        go_wp2_with (first | fail)
        exact frPost_mk rfl (by repeat (first | assumption | exact Below.refl _ _ | refine bch ?_ (by assumption) | refine Below.alloc ?_ (by simp) _)) rfl
      · intro x w' hbw hd
        have d5 : x 5 = .string p.k := hd 5 rfl
        have d10 : x 10 = .string p.v := hd 10 rfl
        clear hd
        have CC := CLf w' hbw
        go_wp2_with (first | (go_at_call 13; refine CC.mono ?_; rintro e wx ⟨rfl, hbx⟩))
        exact frPost_mk rfl (by repeat (first | assumption | exact Below.refl _ _ | refine bch ?_ (by assumption) | refine Below.alloc ?_ (by simp) _)) rfl
      · intro x w' hbw hd
        have d11 : x 11 = .agg (hrow q.1) := hd 11 rfl
        clear hd
        have hsz : (hrow q.1).size = 32 := by rw [hrow_size]; exact q.2
        go_wp2_with fail
        refine frPost_mk rfl (by repeat (first | assumption | exact Below.refl _ _ | refine bch ?_ (by assumption) | refine Below.alloc ?_ (by simp) _)) ?_; show (Fact.row (1) (q.cells)).holds _ _; exact ⟨_, _, rfl, by rw [fold_row _ (hrow q.1) 32 hsz (by rfl), ← H32.list]; exact row_newH _ _ _⟩
    · intro x w' hbw hall
      have hx0 : x 0 = .slice a2 k c2 := hall 0 (by decide)
      obtain ⟨a9, c9, hx12, hr9⟩ := (show (Fact.row (1) (q.cells)).holds (x 12) w' from hall 12 (by decide))
      clear hall
      have ho := own_keptH hown hbw
      have hbel := hbel.trans (hbw.mono hbel.size)
      rcases hr9 with hr9 | ⟨b9, o9, rfl, hb9, hc9⟩
      · have := H32.cells_len q; rw [hr9] at this; cases this
      have hnews : ∀ j u, (q.cells)[j]? = some u → w'.cell? ((⟨b9, o9, none⟩ : Addr).add j) = some u := fun j u hj => by
        rw [Addr.add_mid, hc9 j (List.getElem?_eq_some_iff.1 hj).1, hj]
      simp only [hx0, hx12, List.drop_succ_cons, List.drop_zero]
      go_wp2_with (at_builtin; refine wpList_append_own _ rfl (.tmp 11) (.tmp 23) 22 rfl w.heap.size 25 i0 (.agg #[.int .u8 0, .int .u8 0, .int .u8 0, .int .u8 0, .int .u8 0, .int .u8 0, .int .u8 0, .int .u8 0, .int .u8 0, .int .u8 0, .int .u8 0, .int .u8 0, .int .u8 0, .int .u8 0, .int .u8 0, .int .u8 0, .int .u8 0, .int .u8 0, .int .u8 0, .int .u8 0, .int .u8 0, .int .u8 0, .int .u8 0, .int .u8 0, .int .u8 0, .int .u8 0, .int .u8 0, .int .u8 0, .int .u8 0, .int .u8 0, .int .u8 0, .int .u8 0]) 32 32 Tryd.underlying22 hi hz0 hz1 hz2 rfl (by decide) _ _ _ rfl ho ⟨b9, o9, none⟩ 1 c9 (q.cells) rfl (by rw [H32.cells_len]) hnews hs_one1 (by unfold maxLen; omega) (by omega) hbel.size ?_)
      intro v9 w9 hown9 hgr _
      have hb9' : Below w.heap.size w' w9 := below_grown ho hgr hbel.size
      go_wp2
      go_roundw
      case rel => exact ⟨k + 1, by omega, by go_num, by rw [HTK.out, List.map_take]; exact hown9, hbel.trans hb9'⟩
      case measure => (simp [intOf]) <;> omega
theorem pr_one1 {p : Pr} : ∀ u ∈ p.cells, u.oneCell' = true := fun u hu => by
  simp only [Pr.cells, List.mem_cons, List.not_mem_nil, or_false] at hu
  rcases hu with rfl | rfl <;> rfl
theorem Tryd.infoPr : (Tryd.prog.info? 92).map (fun i => (i.zero, i.size, i.bytes)) = some (some (.agg #[.string ⟨#[]⟩, .string ⟨#[]⟩]), 2, 32) := by kernel_rfl
set_option maxRecDepth 100000 in
set_option maxHeartbeats 6400000 in
theorem own_any (a : Option Addr) (n cap : Nat) (l : List Pr) (w : World) (hr : RowAt w a (l.flatMap Pr.cells)) (hn : l.length = n) (hn6 : n ≤ 1000000) (hcap : n ≤ cap) :
    Calls Tryd.prog 30 #[.slice a n cap] w fun e w' => ∃ v, e = .returned v ∧ w'.ownsRow w.heap.size 92 2 v n ((l).flatMap Pr.cells) ∧ Below w.heap.size w w' := by
  have HN := Lib.hid hn
  obtain ⟨i0, hi, hz0, hz1, hz2⟩ := info_parts Tryd.infoPr
  clear hn
  go_enter Tryd.func30, Tryd.ntmps30
  go_upto_region 3 with fail
  go_loopw [3, 4] (fun v i wr => ∃ k : Nat, k ≤ n ∧ i = .int .i64 k ∧ wr.ownsRow w.heap.size 92 2 v k ((l.take k).flatMap Pr.cells) ∧ Below w.heap.size w wr) (fun _ i _ => n - (intOf i).toNat)
  case atStart => exact ⟨0, Nat.zero_le _, rfl, ⟨rfl, .inl ⟨rfl, rfl⟩⟩, Below.refl _ _⟩
  case round =>
    rename_i sv _ _
    obtain ⟨k, hk, rfl, hown, hbel⟩ := hrel
    by_cases hlt : k < n
    rotate_left
    · have d9 : decide ((k : Int) < (n : Int)) = false := decide_eq_false (by omega)
      have d9n : decide (k < n) = false := decide_eq_false hlt
      rw [List.take_of_length_le (by rw [HN.out]; omega)] at hown
      obtain rfl : k = n := by omega
      obtain ⟨a9, c9, rfl, _⟩ := own_sliceH hown
      go_wp2
      go_ret
      exact ⟨_, rfl, hown, hbel⟩
    have d1 : decide ((k : Int) < (n : Int)) = true := decide_eq_true (by omega)
    have d1n : decide (k < n) = true := decide_eq_true hlt
    have hkl : k < l.length := by rw [HN.out]; exact hlt
    obtain ⟨b1, o1, rfl, hb1, hg1⟩ := pr_range (hr.below hbel) hkl
    have htk : ((l.take (k + 1)).flatMap Pr.cells) = (l.take k).flatMap Pr.cells ++ (l[k]).cells := by
      rw [List.take_succ_eq_append_getElem hkl, List.flatMap_append]
      simp
    obtain ⟨p, hp9⟩ : ∃ p, l[k] = p := ⟨_, rfl⟩
    rw [hp9] at hg1 htk
    have HTK := Lib.hid htk
    clear hp9 htk
    obtain ⟨a2, c2, rfl, _⟩ := own_sliceH hown
    have q0 : wr.cell? ⟨b1, o1 + k * 2, none⟩ = some (.string p.k) := hg1 0 _ rfl
    have q1 : wr.cell? ⟨b1, o1 + k * 2 + 1, none⟩ = some (.string p.v) := hg1 1 _ rfl
    clear hg1
    have n0 : (0 : Int) ≤ (k : Int) := by omega
    have n1 : (k : Int) < (n : Int) := by omega
    have n2 : ((k : Nat) : Int).toNat = k := by omega
    go_upto_region 5 with fail
    refine wp_region_facts_chain 13 (by decide) [Fact.eq (.slice a2 k c2), Fact.eq (.slice (some ⟨b1, o1, none⟩) n cap), Fact.eq (.int .i64 (k : Int)), Fact.eq (.pointer (some ⟨b1, o1 + k * 2, none⟩)), Fact.eq (.pointer (some ⟨b1, o1 + k * 2, none⟩)), Fact.eq (.string p.k), Fact.eq (.slice (some ⟨b1, o1, none⟩) n cap), Fact.eq (.int .i64 (k : Int)), Fact.eq (.pointer (some ⟨b1, o1 + k * 2, none⟩)), Fact.eq (.pointer (some ⟨b1, o1 + k * 2 + 1, none⟩)), Fact.eq (.string p.v), Fact.eq (.agg #[.string p.k, .string p.v]), Fact.row (1) (p.cells)] (by kernel_rfl) (by kernel_rfl) (by kernel_rfl) (by kernel_rfl) (by kernel_rfl) (by kernel_rfl) (by kernel_rfl) (fun x => by simp only [List.take_succ_cons, List.take_zero, fillFrom, Act.put, List.setIfInBounds_toArray, List.set_cons_succ, List.set_cons_zero]; rfl) ?_ ?_
    · refine ⟨?_, ?_, ?_, ?_, ?_, ?_, ?_, ?_, ?_, ?_, ?_, ?_, ?_, trivial⟩
      · intro x w' hbw hd
        clear hd
        go_wp2_with fail
        exact frPost_mk rfl (by repeat (first | assumption | exact Below.refl _ _ | refine bch ?_ (by assumption) | refine Below.alloc ?_ (by simp) _)) rfl
      · intro x w' hbw hd
        clear hd
        go_wp2_with fail
        exact frPost_mk rfl (by repeat (first | assumption | exact Below.refl _ _ | refine bch ?_ (by assumption) | refine Below.alloc ?_ (by simp) _)) rfl
      · intro x w' hbw hd
        clear hd
        go_wp2_with fail
        exact frPost_mk rfl (by repeat (first | assumption | exact Below.refl _ _ | refine bch ?_ (by assumption) | refine Below.alloc ?_ (by simp) _)) rfl
      · intro x w' hbw hd
        have d1 : x 1 = .slice (some ⟨b1, o1, none⟩) n cap := hd 1 rfl
        have d2 : x 2 = .int .i64 (k : Int) := hd 2 rfl
        clear hd
        go_wp2_with fail
        exact frPost_mk rfl (by repeat (first | assumption | exact Below.refl _ _ | refine bch ?_ (by assumption) | refine Below.alloc ?_ (by simp) _)) (by first | rfl | (show Value.pointer _ = Value.pointer _; simp))
      · intro x w' hbw hd
        have d3 : x 3 = .pointer (some ⟨b1, o1 + k * 2, none⟩) := hd 3 rfl
        clear hd
        go_wp2_with fail
        exact frPost_mk rfl (by repeat (first | assumption | exact Below.refl _ _ | refine bch ?_ (by assumption) | refine Below.alloc ?_ (by simp) _)) rfl
      · intro x w' hbw hd
        have d4 : x 4 = .pointer (some ⟨b1, o1 + k * 2, none⟩) := hd 4 rfl
        clear hd
        have cq : w'.cell? ⟨b1, o1 + k * 2, none⟩ = some (.string p.k) := by rw [hbw.cell (p := ⟨b1, o1 + k * 2, none⟩) hb1]; exact q0
        go_wp2_with (first | fail)
        exact frPost_mk rfl (by repeat (first | assumption | exact Below.refl _ _ | refine bch ?_ (by assumption) | refine Below.alloc ?_ (by simp) _)) rfl
      · intro x w' hbw hd
        clear hd
        go_wp2_with fail
        exact frPost_mk rfl (by repeat (first | assumption | exact Below.refl _ _ | refine bch ?_ (by assumption) | refine Below.alloc ?_ (by simp) _)) rfl
      · intro x w' hbw hd
        clear hd
        go_wp2_with fail
        exact frPost_mk rfl (by repeat (first | assumption | exact Below.refl _ _ | refine bch ?_ (by assumption) | refine Below.alloc ?_ (by simp) _)) rfl
      · intro x w' hbw hd
        have d6 : x 6 = .slice (some ⟨b1, o1, none⟩) n cap := hd 6 rfl
        have d7 : x 7 = .int .i64 (k : Int) := hd 7 rfl
        clear hd
        go_wp2_with fail
        exact frPost_mk rfl (by repeat (first | assumption | exact Below.refl _ _ | refine bch ?_ (by assumption) | refine Below.alloc ?_ (by simp) _)) (by first | rfl | (show Value.pointer _ = Value.pointer _; simp))
      · intro x w' hbw hd
        have d8 : x 8 = .pointer (some ⟨b1, o1 + k * 2, none⟩) := hd 8 rfl
        clear hd
        go_wp2_with fail
        exact frPost_mk rfl (by repeat (first | assumption | exact Below.refl _ _ | refine bch ?_ (by assumption) | refine Below.alloc ?_ (by simp) _)) rfl
      · intro x w' hbw hd
        have d9 : x 9 = .pointer (some ⟨b1, o1 + k * 2 + 1, none⟩) := hd 9 rfl
        clear hd
        have cq : w'.cell? ⟨b1, o1 + k * 2 + 1, none⟩ = some (.string p.v) := by rw [hbw.cell (p := ⟨b1, o1 + k * 2 + 1, none⟩) hb1]; exact q1
        go_wp2_with (first | fail)
        exact frPost_mk rfl (by repeat (first | assumption | exact Below.refl _ _ | refine bch ?_ (by assumption) | refine Below.alloc ?_ (by simp) _)) rfl
      · intro x w' hbw hd
        have d5 : x 5 = .string p.k := hd 5 rfl
        have d10 : x 10 = .string p.v := hd 10 rfl
        clear hd
        go_wp2_with fail
        exact frPost_mk rfl (by repeat (first | assumption | exact Below.refl _ _ | refine bch ?_ (by assumption) | refine Below.alloc ?_ (by simp) _)) rfl
      · intro x w' hbw hd
        have d11 : x 11 = .agg #[.string p.k, .string p.v] := hd 11 rfl
        clear hd
        go_wp2_with fail
        refine frPost_mk rfl (by repeat (first | assumption | exact Below.refl _ _ | refine bch ?_ (by assumption) | refine Below.alloc ?_ (by simp) _)) ?_; show (Fact.row (1) (p.cells)).holds _ _; exact ⟨_, _, rfl, row_newH _ _ _⟩
    · intro x w' hbw hall
      have hx0 : x 0 = .slice a2 k c2 := hall 0 (by decide)
      obtain ⟨a9, c9, hx12, hr9⟩ := (show (Fact.row (1) (p.cells)).holds (x 12) w' from hall 12 (by decide))
      clear hall
      have ho := own_keptH hown hbw
      have hbel := hbel.trans (hbw.mono hbel.size)
      rcases hr9 with hr9 | ⟨b9, o9, rfl, hb9, hc9⟩
      · have := Pr.cells_len p; rw [hr9] at this; cases this
      have hnews : ∀ j u, (p.cells)[j]? = some u → w'.cell? ((⟨b9, o9, none⟩ : Addr).add j) = some u := fun j u hj => by
        rw [Addr.add_mid, hc9 j (List.getElem?_eq_some_iff.1 hj).1, hj]
      simp only [hx0, hx12, List.drop_succ_cons, List.drop_zero]
      go_wp2_with (at_builtin; refine wpList_append_own _ rfl (.tmp 11) (.tmp 23) 41 rfl w.heap.size 92 i0 (.agg #[.string ⟨#[]⟩, .string ⟨#[]⟩]) 2 32 Tryd.underlying41 hi hz0 hz1 hz2 rfl (by decide) _ _ _ rfl ho ⟨b9, o9, none⟩ 1 c9 (p.cells) rfl (by rw [Pr.cells_len]) hnews pr_one1 (by unfold maxLen; omega) (by omega) hbel.size ?_)
      intro v9 w9 hown9 hgr _
      have hb9' : Below w.heap.size w' w9 := below_grown ho hgr hbel.size
      go_wp2
      go_roundw
      case rel => exact ⟨k + 1, by omega, by go_num, by rw [HTK.out]; exact hown9, hbel.trans hb9'⟩
      case measure => (simp [intOf]) <;> omega
def lightPr (p : Pr) : Bool := decide (p.k.size ≤ 300) && decide (p.v.size ≤ 200)
def lightPrs (l : List Pr) : Bool := decide (l.length ≤ 40) && l.all lightPr
theorem light_prs {l : List Pr} (h : lightPrs l = true) : l.length ≤ 40 ∧ ∀ p ∈ l, p.k.size ≤ 300 ∧ p.v.size ≤ 200 := by
  unfold lightPrs lightPr at h
  simp only [Bool.and_eq_true, decide_eq_true_eq, List.all_eq_true] at h
  exact h
set_option maxRecDepth 100000 in
set_option maxHeartbeats 6400000 in
theorem lightPrs_any (a : Option Addr) (n cap : Nat) (l : List Pr) (w : World) (hr : RowAt w a (l.flatMap Pr.cells)) (hn : l.length = n) (hcap : n ≤ cap) (hcm : cap ≤ maxLen) :
    Calls Tryd.prog 29 #[.slice a n cap] w fun e w' => e = .returned (.bool (lightPrs l)) ∧ Below w.heap.size w w' := by
  unfold maxLen at hcm
  obtain ⟨r, hr9⟩ : ∃ r, lightPrs l = r := ⟨_, rfl⟩
  rw [hr9]
  unfold lightPrs at hr9
  have HR := Lib.hid hr9
  have HN := Lib.hid hn
  by_cases h40 : 40 < n
  · have d4 : decide (40 < (n : Int)) = true := decide_eq_true (by omega)
    have d4n : decide (40 < n) = true := decide_eq_true (by omega)
    obtain rfl : r = false := by rw [← HR.out, decide_eq_false (show ¬ l.length ≤ 40 by omega)]; rfl
    clear hr9 hn h40
    go_enter Tryd.func29, Tryd.ntmps29
    go_wp2
    go_ret
    exact ⟨rfl, Below.refl _ _⟩
  have d4 : decide (40 < (n : Int)) = false := decide_eq_false (by omega)
  have d4n : decide (40 < n) = false := decide_eq_false (by omega)
  have HL : Hid (l.all lightPr = r) := Lib.hid (by rw [← HR.out, decide_eq_true (show l.length ≤ 40 by omega)]; rfl)
  clear hr9 hn
  go_enter Tryd.func29, Tryd.ntmps29
  go_upto_region 4 with fail
  go_loopw [3] (fun i wr => ∃ k : Nat, k ≤ n ∧ i = .int .i64 k ∧ Hid ((l.take k).all lightPr = true) ∧ wr = w) (fun i _ => n - (intOf i).toNat)
  case atStart => exact ⟨0, Nat.zero_le _, rfl, Lib.hid (by rw [List.take_zero]; rfl), rfl⟩
  case round =>
    obtain ⟨k, hk, rfl, HA, hw9⟩ := hrel
    subst hw9
    by_cases hlt : k < n
    rotate_left
    · have d9 : decide ((k : Int) < (n : Int)) = false := decide_eq_false (by omega)
      have d9n : decide (k < n) = false := decide_eq_false hlt
      obtain rfl : r = true := by rw [← HL.out, ← HA.out, List.take_of_length_le (by have := HN.out; omega)]
      go_wp2
      go_ret
      exact ⟨rfl, Below.refl _ _⟩
    have d1 : decide ((k : Int) < (n : Int)) = true := decide_eq_true (by omega)
    have d1n : decide (k < n) = true := decide_eq_true hlt
    have hkl : k < l.length := by rw [HN.out]; exact hlt
    obtain ⟨b1, o1, rfl, hb1, hg1⟩ := pr_range hr hkl
    have hall := all_takeL (p := lightPr) hkl
    have hbad := all_badL (p := lightPr) hkl
    obtain ⟨p, hp9⟩ : ∃ p, l[k] = p := ⟨_, rfl⟩
    rw [hp9] at hg1 hall hbad
    have HALL := Lib.hid hall
    have HBAD := Lib.hid hbad
    have q0 : wr.cell? ⟨b1, o1 + k * 2, none⟩ = some (.string p.k) := hg1 0 _ rfl
    have q1 : wr.cell? ⟨b1, o1 + k * 2 + 1, none⟩ = some (.string p.v) := hg1 1 _ rfl
    clear hg1 hp9 hall hbad
    have n0 : (0 : Int) ≤ (k : Int) := by omega
    have n1 : (k : Int) < (n : Int) := by omega
    have n2 : ((k : Nat) : Int).toNat = k := by omega
    by_cases h1 : 300 < p.k.size
    · have e1 : decide (300 < (p.k.size : Int)) = true := decide_eq_true (by omega)
      have e1n : decide (300 < p.k.size) = true := decide_eq_true (by omega)
      obtain rfl : r = false := by rw [← HL.out]; exact HBAD.out (by unfold lightPr; rw [decide_eq_false (show ¬ p.k.size ≤ 300 by omega)]; rfl)
      clear h1
      go_wp2
      go_ret
      exact ⟨rfl, Below.refl _ _⟩
    have e1 : decide (300 < (p.k.size : Int)) = false := decide_eq_false (by omega)
    have e1n : decide (300 < p.k.size) = false := decide_eq_false (by omega)
    by_cases h2 : 200 < p.v.size
    · have e2 : decide (200 < (p.v.size : Int)) = true := decide_eq_true (by omega)
      have e2n : decide (200 < p.v.size) = true := decide_eq_true (by omega)
      obtain rfl : r = false := by rw [← HL.out]; exact HBAD.out (by unfold lightPr; rw [decide_eq_false (show ¬ p.v.size ≤ 200 by omega), Bool.and_false])
      clear h1 h2
      go_wp2
      go_ret
      exact ⟨rfl, Below.refl _ _⟩
    have e2 : decide (200 < (p.v.size : Int)) = false := decide_eq_false (by omega)
    have e2n : decide (200 < p.v.size) = false := decide_eq_false (by omega)
    have HP : Hid (lightPr p = true) := Lib.hid (by unfold lightPr; rw [decide_eq_true (show p.k.size ≤ 300 by omega), decide_eq_true (show p.v.size ≤ 200 by omega)]; rfl)
    clear h1 h2
    go_wp2
    go_roundw
    case rel => exact ⟨k + 1, by omega, by go_num, Lib.hid (by rw [HALL.out, HA.out, HP.out]; rfl), trivial⟩
    case measure => (simp [intOf]) <;> omega
end Go.Proofs.YtfikbaoiialfeaaDoor
