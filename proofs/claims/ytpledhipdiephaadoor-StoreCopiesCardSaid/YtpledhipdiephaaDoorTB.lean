/- The leaves' hashes of a list of pairs. The search for a key among pairs. Which pairs a proof shows. A good list is sorted, its pairs are short; what Make makes. The document's lists of pairs: Good and leaves; pairs taken over, light pairs. Does each leaf of a proof come to the root. What Make makes. The root of a list of pairs; a leaf of a proof as the document makes it. -/
import Derived.Test.YtpledhipdiephaaDoorSt3
import Derived.Test.YtpledhipdiephaaDoorTA
import Derived.BigRegion
import Derived.RegionTactic
import Derived.Deep.MidRow
import Derived.LoopTactic
import Derived.BigFrame
import Derived.Maps.AppendAt
import Derived.OwnWalk
import Derived.WalkKit
import Derived.ProofKit
import Derived.Handy
import Derived.Below
import Derived.Lib.Hide
import Derived.IntWalk
import Derived.Outline
import Derived.WalkLawsBesides
import Derived.WalkSpells
import Derived.Test.YtpledhipdiephaaDoorShelf
import Derived.BigQuiet
import Derived.Deep.QuietTactic
import Derived.Maps.OwnRows
import Derived.Test.YtpledhipdiephaaDoorT9
import Derived.Test.YtpledhipdiephaaDoorT8
namespace Go.Proofs.YtpledhipdiephaaDoor
open Go.RowKit
attribute [local go_sem] strV
set_option linter.unusedVariables false
def leafH (p : Pr) : H32 := ⟨leafF p.k p.v, leafF_len _ _⟩
theorem below_own {w w' : World} {base : Nat} {row : Option Nat} (hg : w.grownBy w' row) (hr : ∀ k, row = some k → base ≤ k) (hb : base ≤ w.heap.size) : Below base w w' :=
  (Below.refl base w).grown hg hb hr
set_option maxRecDepth 100000 in
set_option maxHeartbeats 6400000 in
theorem leaves_any (a : Option Addr) (n cap : Nat) (l : List Pr) (w : World) (hW : SW w) (hr : RowAt w a (l.flatMap Pr.cells)) (hn : l.length = n) (hn6 : n ≤ 1000000) (hs : ∀ p ∈ l, p.k.size ≤ 1000000 ∧ p.v.size ≤ 1000000) :
    Calls Tryd.prog 77 #[.slice a n cap] w fun e w' => ∃ v, e = .returned v ∧ w'.ownsRow w.heap.size 35 32 v n ((l.map leafH).flatMap H32.cells) ∧ Below w.heap.size w w' := by
  have HN := Lib.hid hn
  have HS := Lib.hid hs
  obtain ⟨i0, hi, hz0, hz1, hz2⟩ := info_parts Tryd.infoH
  clear hn hs
  go_enter Tryd.func77, Tryd.ntmps77
  go_upto_region 3 with (at_make; refine wpList_make_own _ rfl _ _ 106 rfl w.heap.size 35 i0 (.agg #[.int .u8 0, .int .u8 0, .int .u8 0, .int .u8 0, .int .u8 0, .int .u8 0, .int .u8 0, .int .u8 0, .int .u8 0, .int .u8 0, .int .u8 0, .int .u8 0, .int .u8 0, .int .u8 0, .int .u8 0, .int .u8 0, .int .u8 0, .int .u8 0, .int .u8 0, .int .u8 0, .int .u8 0, .int .u8 0, .int .u8 0, .int .u8 0, .int .u8 0, .int .u8 0, .int .u8 0, .int .u8 0, .int .u8 0, .int .u8 0, .int .u8 0, .int .u8 0]) 32 Tryd.underlying106 hi hz0 hz1 .i64 .i64 _ n rfl rfl rfl (by rw [hz2]; omega) (by unfold maxLen; omega) (Nat.le_refl _) ?_; intro w1 hown hgr)
  have hbel := below_own hgr (fun k h => by cases h) (Nat.le_refl w.heap.size)
  go_loopw [3, 11] (fun v i wr => ∃ k : Nat, k ≤ n ∧ i = .int .i64 k ∧ wr.ownsRow w.heap.size 35 32 v k (((l.take k).map leafH).flatMap H32.cells) ∧ Below w.heap.size w wr) (fun _ i _ => n - (intOf i).toNat)
  case atStart => exact ⟨0, Nat.zero_le _, rfl, hown, hbel⟩
  case round =>
    clear hown hgr hbel
    rename_i sv _ _
    obtain ⟨k, hk, rfl, hown, hbel⟩ := hrel
    by_cases hlt : k < n
    rotate_left
    · have d9 : decide ((k : Int) < (n : Int)) = false := decide_eq_false (by omega)
      have d9n : decide (k < n) = false := decide_eq_false hlt
      rw [List.take_of_length_le (by rw [HN.out]; omega)] at hown
      obtain rfl : k = n := by omega
      obtain ⟨a9, c9, rfl, _⟩ := own_sliceH hown
      go_wp2
      go_ret
      exact ⟨_, rfl, hown, hbel⟩
    have d1 : decide ((k : Int) < (n : Int)) = true := decide_eq_true (by omega)
    have d1n : decide (k < n) = true := decide_eq_true hlt
    have hkl : k < l.length := by rw [HN.out]; exact hlt
    obtain ⟨b1, o1, rfl, hb1, hg1⟩ := pr_range (hr.below hbel) hkl
    have hsz := HS.out _ (List.getElem_mem hkl)
    have htk : (((l.take (k + 1)).map leafH).flatMap H32.cells) = ((l.take k).map leafH).flatMap H32.cells ++ (leafH l[k]).cells := by
      rw [List.take_succ_eq_append_getElem hkl, List.map_append, List.flatMap_append]
      simp
    obtain ⟨p, hp9⟩ : ∃ p, l[k] = p := ⟨_, rfl⟩
    rw [hp9] at hg1 hsz htk
    have HTK := Lib.hid htk
    have CLf := fun W (hb : Below w.heap.size w W) => leaf_any p.k p.v W (hW.below hb) hsz.1 hsz.2
    obtain ⟨q, hq9⟩ : ∃ q : H32, leafH p = q := ⟨_, rfl⟩
    have hqe : leafF p.k p.v = q.1 := by rw [← hq9]; rfl
    simp only [hqe] at CLf
    rw [hq9] at HTK
    have hqs : (hrow q.1).size = 32 := by rw [hrow_size]; exact q.2
    clear hp9 htk hq9 hqe hsz
    obtain ⟨a2, c2, rfl, _⟩ := own_sliceH hown
    have n0 : (0 : Int) ≤ (k : Int) := by omega
    have n1 : (k : Int) < (n : Int) := by omega
    have n2 : ((k : Nat) : Int).toNat = k := by omega
    go_upto_region 5 with (first | (refine wpList_load_mid rfl 41 (.tmp 13) rfl b1 _ rfl p.cells _ hg1 Tryd.underlying41 rfl (by rfl) ?_) | (refine wpList_storeRowTo (Z := p.cells.toArray) rfl (.tmp 5) (.tmp 14) 41 rfl (by kernel_rfl) rfl (by rfl) (heap_push _ _ _) rfl (pr_one p) ?_))
    refine wp_nameE _ (fun W4 hX => ?_)
    have hb4 : Below wr.heap.size wr W4 := by rw [hX]; exact below_setRow (Below.alloc (Below.refl _ _) (Nat.le_refl _) _) (Nat.le_refl _) _
    have hx : W4.heap[wr.heap.size]? = some (.cells p.cells.toArray 41 (0, 0)) := by rw [hX]; exact setRow_heap _ _ _ _ _ _ (heap_push _ _ _)
    clear hX hg1
    have hown := own_keptH hown hb4
    have hbel := hbel.trans (hb4.mono hbel.size)
    have c0 : W4.cell? ⟨wr.heap.size, 0, none⟩ = some (.string p.k) := cell_heap hx 0
    have c1 : W4.cell? ⟨wr.heap.size, 1, none⟩ = some (.string p.v) := cell_heap hx 1
    go_upto_region 6 with (first | (go_at_call 82; refine (CLf _ hbel).mono ?_; rintro e w5 ⟨rfl, hb5⟩; have hown := own_keptH hown hb5; have hbel := hbel.trans (hb5.mono hbel.size)) | (refine wpList_one rfl (.tmp 20) 106 35 rfl (by rfl) (one_hash _ hqs _) ?_; have hb6 : Below w5.heap.size w5 (w5.alloc (.cells (hrow q.1) 35)) := Below.alloc (Below.refl _ _) (Nat.le_refl _) _; have hown := own_keptH hown hb6; have hbel := hbel.trans (hb6.mono hbel.size); have hnews : ∀ j u, q.cells[j]? = some u → (w5.alloc (.cells (hrow q.1) 35)).cell? ((⟨w5.heap.size, 0, none⟩ : Addr).add j) = some u := fun j u hj => (by rw [Addr.add_mid, Nat.zero_add, cell_heap (heap_push _ _ _), ← hj, show hrow q.1 = q.cells.toArray from rfl, List.getElem?_toArray])) | (at_builtin; refine wpList_append_own_at _ rfl (.tmp 15) (.tmp 21) 106 rfl w.heap.size 35 i0 (.agg #[.int .u8 0, .int .u8 0, .int .u8 0, .int .u8 0, .int .u8 0, .int .u8 0, .int .u8 0, .int .u8 0, .int .u8 0, .int .u8 0, .int .u8 0, .int .u8 0, .int .u8 0, .int .u8 0, .int .u8 0, .int .u8 0, .int .u8 0, .int .u8 0, .int .u8 0, .int .u8 0, .int .u8 0, .int .u8 0, .int .u8 0, .int .u8 0, .int .u8 0, .int .u8 0, .int .u8 0, .int .u8 0, .int .u8 0, .int .u8 0, .int .u8 0, .int .u8 0]) 32 32 Tryd.underlying106 hi hz0 hz1 hz2 rfl (by decide) _ _ _ rfl hown ⟨w5.heap.size, 0, none⟩ 1 1 q.cells rfl (by rw [H32.cells_len]) hnews (Lib.byteCells_one q.1) (by unfold maxLen; omega) (by omega) hbel.size ?_; intro v9 w9 hown9 hgr9 _ _))
    have hb9 := below_own hgr9 (fun j hj => ((hown.lt j hj).1)) hbel.size
    go_wp2
    go_roundw
    case rel => exact ⟨k + 1, by omega, by go_num, by rw [HTK.out]; exact hown9, hbel.trans hb9⟩
    case measure => (simp [intOf]) <;> omega
end Go.Proofs.YtpledhipdiephaaDoor
namespace Go.Proofs.YtpledhipdiephaaDoor
open Go.RowKit
attribute [local go_sem] strV
set_option linter.unusedVariables false
end Go.Proofs.YtpledhipdiephaaDoor
namespace Go.Proofs.YtpledhipdiephaaDoor
open Go.RowKit
attribute [local go_sem] strV
set_option linter.unusedVariables false
end Go.Proofs.YtpledhipdiephaaDoor
namespace Go.Proofs.YtpledhipdiephaaDoor
open Go.RowKit
set_option linter.unusedVariables false
def mkD (l : List Pr) (i : Nat) : LeafD := match l[i]? with | some p => ⟨p.k, p.v, i, wayH (l.map leafH) i⟩ | none => ⟨⟨#[]⟩, ⟨#[]⟩, 0, []⟩
end Go.Proofs.YtpledhipdiephaaDoor
namespace Go.Proofs.YtpledhipdiephaaDoor
open Go.RowKit
attribute [local go_sem] strV
set_option linter.unusedVariables false
set_option maxRecDepth 100000 in
set_option maxHeartbeats 6400000 in
theorem refLeaves_any (a : Option Addr) (n cap : Nat) (l : List Pr) (w : World) (hr : RowAt w a (l.flatMap Pr.cells)) (hn : l.length = n) (hn6 : n ≤ 1000000) (hcap : n ≤ cap) (hs : ∀ p ∈ l, p.k.size ≤ 300000 ∧ p.v.size ≤ 300000) :
    Calls Tryd.prog 63 #[.slice a n cap] w fun e w' => ∃ v, e = .returned v ∧ w'.ownsRow w.heap.size 35 32 v n (((l).map leafH).flatMap H32.cells) ∧ Below w.heap.size w w' := by
  have HN := Lib.hid hn
  have HS := Lib.hid hs
  clear hs
  obtain ⟨i0, hi, hz0, hz1, hz2⟩ := info_parts Tryd.infoH
  clear hn
  go_enter Tryd.func63, Tryd.ntmps63
  go_upto_region 3 with fail
  go_loopw [3, 4] (fun v i wr => ∃ k : Nat, k ≤ n ∧ i = .int .i64 k ∧ wr.ownsRow w.heap.size 35 32 v k (((l.take k).map leafH).flatMap H32.cells) ∧ Below w.heap.size w wr) (fun _ i _ => n - (intOf i).toNat)
  case atStart => exact ⟨0, Nat.zero_le _, rfl, ⟨rfl, .inl ⟨rfl, rfl⟩⟩, Below.refl _ _⟩
  case round =>
    rename_i sv _ _
    obtain ⟨k, hk, rfl, hown, hbel⟩ := hrel
    by_cases hlt : k < n
    rotate_left
    · have d9 : decide ((k : Int) < (n : Int)) = false := decide_eq_false (by omega)
      have d9n : decide (k < n) = false := decide_eq_false hlt
      rw [List.take_of_length_le (by rw [HN.out]; omega)] at hown
      obtain rfl : k = n := by omega
      obtain ⟨a9, c9, rfl, _⟩ := own_sliceH hown
      go_wp2
      go_ret
      exact ⟨_, rfl, hown, hbel⟩
    have d1 : decide ((k : Int) < (n : Int)) = true := decide_eq_true (by omega)
    have d1n : decide (k < n) = true := decide_eq_true hlt
    have hkl : k < l.length := by rw [HN.out]; exact hlt
    obtain ⟨b1, o1, rfl, hb1, hg1⟩ := pr_range (hr.below hbel) hkl
    have hsz := HS.out _ (List.getElem_mem hkl)
    have htk : (((l.take (k + 1)).map leafH).flatMap H32.cells) = ((l.take k).map leafH).flatMap H32.cells ++ (leafH l[k]).cells := by
      rw [List.take_succ_eq_append_getElem hkl, List.map_append, List.flatMap_append]
      simp
    obtain ⟨p, hp9⟩ : ∃ p, l[k] = p := ⟨_, rfl⟩
    rw [hp9] at hg1 hsz htk
    have HTK := Lib.hid htk
    have CLf := fun W (_ : Below wr.heap.size wr W) => refLeaf_any p.k p.v W hsz.1 hsz.2
    obtain ⟨q, hq9⟩ : ∃ q : H32, leafH p = q := ⟨_, rfl⟩
    have hqe : leafF p.k p.v = q.1 := by rw [← hq9]; rfl
    simp only [hqe] at CLf
    rw [hq9] at HTK
    clear hp9 htk hq9 hqe hsz
    obtain ⟨a2, c2, rfl, _⟩ := own_sliceH hown
    have q0 : wr.cell? ⟨b1, o1 + k * 2, none⟩ = some (.string p.k) := hg1 0 _ rfl
    have q1 : wr.cell? ⟨b1, o1 + k * 2 + 1, none⟩ = some (.string p.v) := hg1 1 _ rfl
    clear hg1
    have n0 : (0 : Int) ≤ (k : Int) := by omega
    have n1 : (k : Int) < (n : Int) := by omega
    have n2 : ((k : Nat) : Int).toNat = k := by omega
    go_upto_region 5 with fail
    refine wp_region_facts_chain 13 (by decide) [Fact.eq (.slice a2 k c2), Fact.eq (.slice (some ⟨b1, o1, none⟩) n cap), Fact.eq (.int .i64 (k : Int)), Fact.eq (.pointer (some ⟨b1, o1 + k * 2, none⟩)), Fact.eq (.pointer (some ⟨b1, o1 + k * 2, none⟩)), Fact.eq (.string p.k), Fact.eq (.slice (some ⟨b1, o1, none⟩) n cap), Fact.eq (.int .i64 (k : Int)), Fact.eq (.pointer (some ⟨b1, o1 + k * 2, none⟩)), Fact.eq (.pointer (some ⟨b1, o1 + k * 2 + 1, none⟩)), Fact.eq (.string p.v), Fact.eq (.agg (hrow q.1)), Fact.row (1) (q.cells)] (by kernel_rfl) (by kernel_rfl) (by kernel_rfl) (by kernel_rfl) (by kernel_rfl) (by kernel_rfl) (by kernel_rfl) (fun x => by simp only [List.take_succ_cons, List.take_zero, fillFrom, Act.put, List.setIfInBounds_toArray, List.set_cons_succ, List.set_cons_zero]; rfl) ?_ ?_
    · refine ⟨?_, ?_, ?_, ?_, ?_, ?_, ?_, ?_, ?_, ?_, ?_, ?_, ?_, trivial⟩
      · intro x w' hbw hd
        clear hd
        go_wp2_with fail
        exact frPost_mk rfl (by repeat (first | assumption | exact Below.refl _ _ | refine bch ?_ (by assumption) | refine Below.alloc ?_ (by simp) _)) rfl
      · intro x w' hbw hd
        clear hd
        go_wp2_with fail
        exact frPost_mk rfl (by repeat (first | assumption | exact Below.refl _ _ | refine bch ?_ (by assumption) | refine Below.alloc ?_ (by simp) _)) rfl
      · intro x w' hbw hd
        clear hd
        go_wp2_with fail
        exact frPost_mk rfl (by repeat (first | assumption | exact Below.refl _ _ | refine bch ?_ (by assumption) | refine Below.alloc ?_ (by simp) _)) rfl
      · intro x w' hbw hd
        have d1 : x 1 = .slice (some ⟨b1, o1, none⟩) n cap := hd 1 rfl
        have d2 : x 2 = .int .i64 (k : Int) := hd 2 rfl
        clear hd
        go_wp2_with fail
        exact frPost_mk rfl (by repeat (first | assumption | exact Below.refl _ _ | refine bch ?_ (by assumption) | refine Below.alloc ?_ (by simp) _)) (by first | rfl | (show Value.pointer _ = Value.pointer _; simp))
      · intro x w' hbw hd
        have d3 : x 3 = .pointer (some ⟨b1, o1 + k * 2, none⟩) := hd 3 rfl
        clear hd
        go_wp2_with fail
        exact frPost_mk rfl (by repeat (first | assumption | exact Below.refl _ _ | refine bch ?_ (by assumption) | refine Below.alloc ?_ (by simp) _)) rfl
      · intro x w' hbw hd
        have d4 : x 4 = .pointer (some ⟨b1, o1 + k * 2, none⟩) := hd 4 rfl
        clear hd
        have cq : w'.cell? ⟨b1, o1 + k * 2, none⟩ = some (.string p.k) := by rw [hbw.cell (p := ⟨b1, o1 + k * 2, none⟩) hb1]; exact q0
        go_wp2_with (first | fail)
        exact frPost_mk rfl (by repeat (first | assumption | exact Below.refl _ _ | refine bch ?_ (by assumption) | refine Below.alloc ?_ (by simp) _)) rfl
      · intro x w' hbw hd
        clear hd
        go_wp2_with fail
        exact frPost_mk rfl (by repeat (first | assumption | exact Below.refl _ _ | refine bch ?_ (by assumption) | refine Below.alloc ?_ (by simp) _)) rfl
      · intro x w' hbw hd
        clear hd
        go_wp2_with fail
        exact frPost_mk rfl (by repeat (first | assumption | exact Below.refl _ _ | refine bch ?_ (by assumption) | refine Below.alloc ?_ (by simp) _)) rfl
      · intro x w' hbw hd
        have d6 : x 6 = .slice (some ⟨b1, o1, none⟩) n cap := hd 6 rfl
        have d7 : x 7 = .int .i64 (k : Int) := hd 7 rfl
        clear hd
        go_wp2_with fail
        exact frPost_mk rfl (by repeat (first | assumption | exact Below.refl _ _ | refine bch ?_ (by assumption) | refine Below.alloc ?_ (by simp) _)) (by first | rfl | (show Value.pointer _ = Value.pointer _; simp))
      · intro x w' hbw hd
        have d8 : x 8 = .pointer (some ⟨b1, o1 + k * 2, none⟩) := hd 8 rfl
        clear hd
        go_wp2_with fail
        exact frPost_mk rfl (by repeat (first | assumption | exact Below.refl _ _ | refine bch ?_ (by assumption) | refine Below.alloc ?_ (by simp) _)) rfl
      · intro x w' hbw hd
        have d9 : x 9 = .pointer (some ⟨b1, o1 + k * 2 + 1, none⟩) := hd 9 rfl
        clear hd
        have cq : w'.cell? ⟨b1, o1 + k * 2 + 1, none⟩ = some (.string p.v) := by rw [hbw.cell (p := ⟨b1, o1 + k * 2 + 1, none⟩) hb1]; exact q1
        go_wp2_with (first | fail)
        exact frPost_mk rfl (by repeat (first | assumption | exact Below.refl _ _ | refine bch ?_ (by assumption) | refine Below.alloc ?_ (by simp) _)) rfl
      · intro x w' hbw hd
        have d5 : x 5 = .string p.k := hd 5 rfl
        have d10 : x 10 = .string p.v := hd 10 rfl
        clear hd
        have CC := CLf w' hbw
        go_wp2_with (first | (go_at_call 92; refine CC.mono ?_; rintro e wx ⟨rfl, hbx⟩))
        exact frPost_mk rfl (by repeat (first | assumption | exact Below.refl _ _ | refine bch ?_ (by assumption) | refine Below.alloc ?_ (by simp) _)) rfl
      · intro x w' hbw hd
        have d11 : x 11 = .agg (hrow q.1) := hd 11 rfl
        clear hd
        have hsz : (hrow q.1).size = 32 := by rw [hrow_size]; exact q.2
        go_wp2_with fail
        refine frPost_mk rfl (by repeat (first | assumption | exact Below.refl _ _ | refine bch ?_ (by assumption) | refine Below.alloc ?_ (by simp) _)) ?_; show (Fact.row (1) (q.cells)).holds _ _; exact ⟨_, _, rfl, by rw [fold_row _ (hrow q.1) 32 hsz (by rfl), ← H32.list]; exact row_newH _ _ _⟩
    · intro x w' hbw hall
      have hx0 : x 0 = .slice a2 k c2 := hall 0 (by decide)
      obtain ⟨a9, c9, hx12, hr9⟩ := (show (Fact.row (1) (q.cells)).holds (x 12) w' from hall 12 (by decide))
      clear hall
      have ho := own_keptH hown hbw
      have hbel := hbel.trans (hbw.mono hbel.size)
      rcases hr9 with hr9 | ⟨b9, o9, rfl, hb9, hc9⟩
      · have := H32.cells_len q; rw [hr9] at this; cases this
      have hnews : ∀ j u, (q.cells)[j]? = some u → w'.cell? ((⟨b9, o9, none⟩ : Addr).add j) = some u := fun j u hj => by
        rw [Addr.add_mid, hc9 j (List.getElem?_eq_some_iff.1 hj).1, hj]
      simp only [hx0, hx12, List.drop_succ_cons, List.drop_zero]
      go_wp2_with (at_builtin; refine wpList_append_own _ rfl (.tmp 11) (.tmp 23) 106 rfl w.heap.size 35 i0 (.agg #[.int .u8 0, .int .u8 0, .int .u8 0, .int .u8 0, .int .u8 0, .int .u8 0, .int .u8 0, .int .u8 0, .int .u8 0, .int .u8 0, .int .u8 0, .int .u8 0, .int .u8 0, .int .u8 0, .int .u8 0, .int .u8 0, .int .u8 0, .int .u8 0, .int .u8 0, .int .u8 0, .int .u8 0, .int .u8 0, .int .u8 0, .int .u8 0, .int .u8 0, .int .u8 0, .int .u8 0, .int .u8 0, .int .u8 0, .int .u8 0, .int .u8 0, .int .u8 0]) 32 32 Tryd.underlying106 hi hz0 hz1 hz2 rfl (by decide) _ _ _ rfl ho ⟨b9, o9, none⟩ 1 c9 (q.cells) rfl (by rw [H32.cells_len]) hnews hs_one1 (by unfold maxLen; omega) (by omega) hbel.size ?_)
      intro v9 w9 hown9 hgr _
      have hb9' : Below w.heap.size w' w9 := below_grown ho hgr hbel.size
      go_wp2
      go_roundw
      case rel => exact ⟨k + 1, by omega, by go_num, by rw [HTK.out, List.map_take]; exact hown9, hbel.trans hb9'⟩
      case measure => (simp [intOf]) <;> omega
end Go.Proofs.YtpledhipdiephaaDoor
namespace Go.Proofs.YtpledhipdiephaaDoor
open Go.RowKit
attribute [local go_sem] strV
set_option linter.unusedVariables false
theorem lv_one (x : LeafV) : x.cells.toArray.all (·.oneCell') = true := by simp [LeafV.cells, Value.oneCell']
end Go.Proofs.YtpledhipdiephaaDoor
namespace Go.Proofs.YtpledhipdiephaaDoor
open Go.RowKit
attribute [local go_sem] strV
set_option linter.unusedVariables false
end Go.Proofs.YtpledhipdiephaaDoor
namespace Go.Proofs.YtpledhipdiephaaDoor
open Go.RowKit
attribute [local go_sem] strV
set_option linter.unusedVariables false
theorem SameT.setRowT {T e : TypeId} {B g : Nat} {w : World} {cs cur : Array Value} {fz : Nat × Nat} (hT : T ≠ e) (hg : w.heap[g]? = some (.cells cur e fz)) : SameT T B w (w.setRow g cs) :=
  ⟨by simp [World.setRow], fun j _ cur2 fz2 h => by
    have hne : j ≠ g := fun h9 => by subst h9; rw [hg] at h; cases h; exact hT rfl
    rw [setRow_other w g j cs (by omega)]; exact h⟩
set_option maxRecDepth 100000 in
set_option maxHeartbeats 6400000 in
theorem proofRoot_any (a : Option Addr) (n cap : Nat) (l : List Pr) (w : World) (hW : SW w) (hr : RowAt w a (l.flatMap Pr.cells)) (hn : l.length = n) (hn6 : n ≤ 1000000) (hcap : n ≤ cap) (hs : ∀ p ∈ l, p.k.size ≤ 1000000 ∧ p.v.size ≤ 1000000) :
    Calls Tryd.prog 52 #[.slice a n cap] w fun e w' => e = .returned (.agg (hrow (rootF (n : Int) (topH (l.map leafH)).1))) ∧ Below w.heap.size w w' := by
  have hq := heap_push w #[Value.int .u8 0, Value.int .u8 0, Value.int .u8 0, Value.int .u8 0, Value.int .u8 0, Value.int .u8 0, Value.int .u8 0, Value.int .u8 0, Value.int .u8 0, Value.int .u8 0, Value.int .u8 0, Value.int .u8 0, Value.int .u8 0, Value.int .u8 0, Value.int .u8 0, Value.int .u8 0, Value.int .u8 0, Value.int .u8 0, Value.int .u8 0, Value.int .u8 0, Value.int .u8 0, Value.int .u8 0, Value.int .u8 0, Value.int .u8 0, Value.int .u8 0, Value.int .u8 0, Value.int .u8 0, Value.int .u8 0, Value.int .u8 0, Value.int .u8 0, Value.int .u8 0, Value.int .u8 0] 35
  have hb0 : Below w.heap.size w (w.alloc (.cells #[Value.int .u8 0, Value.int .u8 0, Value.int .u8 0, Value.int .u8 0, Value.int .u8 0, Value.int .u8 0, Value.int .u8 0, Value.int .u8 0, Value.int .u8 0, Value.int .u8 0, Value.int .u8 0, Value.int .u8 0, Value.int .u8 0, Value.int .u8 0, Value.int .u8 0, Value.int .u8 0, Value.int .u8 0, Value.int .u8 0, Value.int .u8 0, Value.int .u8 0, Value.int .u8 0, Value.int .u8 0, Value.int .u8 0, Value.int .u8 0, Value.int .u8 0, Value.int .u8 0, Value.int .u8 0, Value.int .u8 0, Value.int .u8 0, Value.int .u8 0, Value.int .u8 0, Value.int .u8 0] 35)) := Below.alloc (Below.refl _ _) (Nat.le_refl _) _
  have CL := fun W (hb : Below w.heap.size w W) => leaves_any a n cap l W (hW.below hb) (hr.below hb) hn hn6 hs
  have hml : (l.map leafH).length = n := by rw [List.length_map, hn]
  have CT := fun W (hb : Below w.heap.size w W) (a9 : Option Addr) (c9 : Nat) (h9 : n ≤ c9) (h8 : c9 ≤ maxLen) (h7 : RowAt W a9 ((l.map leafH).flatMap H32.cells)) => top_any n _ a9 c9 W hml hn6 h9 h8 h7 (hW.below hb)
  obtain ⟨T, hT⟩ : ∃ t, topH (l.map leafH) = t := ⟨_, rfl⟩
  simp only [hT] at CT ⊢
  have CR := fun W (hb : Below w.heap.size w W) => root_any (n : Int) T.1 W (hW.below hb) T.2
  obtain ⟨R, hR⟩ : ∃ t : H32, rootF (n : Int) T.1 = t.1 := ⟨⟨_, rootF_len _ _⟩, rfl⟩
  simp only [hR] at CR ⊢
  have hRs : (hrow R.1).size = 32 := by rw [hrow_size]; exact R.2
  have hRo := hrow_one R.1
  clear hT hR hml hs hn
  go_enter Tryd.func52, Tryd.ntmps52
  go_upto_region 1 with fail
  refine wp_nameE _ (fun W1 hX => ?_)
  have y2 : W1.heap[w.heap.size]? = some (.cells #[Value.int .u8 0, Value.int .u8 0, Value.int .u8 0, Value.int .u8 0, Value.int .u8 0, Value.int .u8 0, Value.int .u8 0, Value.int .u8 0, Value.int .u8 0, Value.int .u8 0, Value.int .u8 0, Value.int .u8 0, Value.int .u8 0, Value.int .u8 0, Value.int .u8 0, Value.int .u8 0, Value.int .u8 0, Value.int .u8 0, Value.int .u8 0, Value.int .u8 0, Value.int .u8 0, Value.int .u8 0, Value.int .u8 0, Value.int .u8 0, Value.int .u8 0, Value.int .u8 0, Value.int .u8 0, Value.int .u8 0, Value.int .u8 0, Value.int .u8 0, Value.int .u8 0, Value.int .u8 0] 35 (0, 0)) := by rw [hX]; exact hq
  have hbel : Below w.heap.size w W1 := by rw [hX]; exact hb0
  clear hX hq hb0
  have hy2 := (Array.getElem?_eq_some_iff.1 y2).1
  go_wp2_with (first | (go_at_call 77; refine (CL _ hbel).mono ?_; rintro e w4 ⟨vh, rfl, hoh, hb⟩; obtain ⟨ah, ch, rfl, hrh, hh1, hh2⟩ := own_sliceH hoh; have y2 := cells_of y2 hb hy2; have hbel := hbel.trans (hb.mono hbel.size); have hy2 := Nat.lt_of_lt_of_le hy2 hb.size; clear hb hoh) | (go_at_call 76; refine (CT _ hbel ah ch hh1 hh2 hrh).mono ?_; rintro e w5 ⟨rfl, hb⟩; have y2 := cells_of y2 hb hy2; have hbel := hbel.trans (hb.mono hbel.size); have hy2 := Nat.lt_of_lt_of_le hy2 hb.size; clear hb) | (go_at_call 58; refine (CR _ hbel).mono ?_; rintro e w6 ⟨rfl, hb⟩; have y2 := cells_of y2 hb hy2; have hbel := hbel.trans (hb.mono hbel.size); have hy2 := Nat.lt_of_lt_of_le hy2 hb.size; clear hb) | (refine wpList_storeRowTo (Z := hrow R.1) rfl (.tmp 2) (.tmp 8) 35 rfl (by rw [hRs]; kernel_rfl) rfl (by rfl) y2 (by rw [hRs]; rfl) hRo ?_))
  have hrd := run_loadVar_row (P := Tryd.prog) _ _ 35 35 _ (0, 0) _ (setRow_heap _ _ _ _ _ _ y2) Tryd.underlying35 rfl (by rw [hRs]; kernel_rfl)
  refine bodyPost_ret (v := .agg (hrow R.1)) ?_ rfl ?_
  · simp [results, Tryd.results52, asAddr, Act.put, hrd]
    try rfl
  exact ⟨rfl, below_setRow hbel (Nat.le_refl _) _⟩
set_option maxRecDepth 100000 in
set_option maxHeartbeats 6400000 in
theorem refRootOf_any (a : Option Addr) (n cap : Nat) (l : List Pr) (w : World) (hr : RowAt w a (l.flatMap Pr.cells)) (hn : l.length = n) (hn6 : n ≤ 1000000) (hcap : n ≤ cap) (hs : ∀ p ∈ l, p.k.size ≤ 300000 ∧ p.v.size ≤ 300000) :
    Calls Tryd.prog 31 #[.slice a n cap] w fun e w' => e = .returned (.agg (hrow (rootF (n : Int) (topH (l.map leafH)).1))) ∧ Below w.heap.size w w' := by
  have hq := heap_push w #[Value.int .u8 0, Value.int .u8 0, Value.int .u8 0, Value.int .u8 0, Value.int .u8 0, Value.int .u8 0, Value.int .u8 0, Value.int .u8 0, Value.int .u8 0, Value.int .u8 0, Value.int .u8 0, Value.int .u8 0, Value.int .u8 0, Value.int .u8 0, Value.int .u8 0, Value.int .u8 0, Value.int .u8 0, Value.int .u8 0, Value.int .u8 0, Value.int .u8 0, Value.int .u8 0, Value.int .u8 0, Value.int .u8 0, Value.int .u8 0, Value.int .u8 0, Value.int .u8 0, Value.int .u8 0, Value.int .u8 0, Value.int .u8 0, Value.int .u8 0, Value.int .u8 0, Value.int .u8 0] 35
  have hb0 : Below w.heap.size w (w.alloc (.cells #[Value.int .u8 0, Value.int .u8 0, Value.int .u8 0, Value.int .u8 0, Value.int .u8 0, Value.int .u8 0, Value.int .u8 0, Value.int .u8 0, Value.int .u8 0, Value.int .u8 0, Value.int .u8 0, Value.int .u8 0, Value.int .u8 0, Value.int .u8 0, Value.int .u8 0, Value.int .u8 0, Value.int .u8 0, Value.int .u8 0, Value.int .u8 0, Value.int .u8 0, Value.int .u8 0, Value.int .u8 0, Value.int .u8 0, Value.int .u8 0, Value.int .u8 0, Value.int .u8 0, Value.int .u8 0, Value.int .u8 0, Value.int .u8 0, Value.int .u8 0, Value.int .u8 0, Value.int .u8 0] 35)) := Below.alloc (Below.refl _ _) (Nat.le_refl _) _
  have CL := fun W (hb : Below w.heap.size w W) => refLeaves_any a n cap l W (hr.below hb) hn hn6 hcap hs
  have hml : (l.map leafH).length = n := by rw [List.length_map, hn]
  have CT := fun W (hb : Below w.heap.size w W) (a9 : Option Addr) (c9 : Nat) (h9 : n ≤ c9) (h8 : c9 ≤ maxLen) (h7 : RowAt W a9 ((l.map leafH).flatMap H32.cells)) => refTop_any n _ a9 c9 W hml hn6 h9 h8 h7 trivial
  obtain ⟨T, hT⟩ : ∃ t, topH (l.map leafH) = t := ⟨_, rfl⟩
  simp only [hT] at CT ⊢
  have CR := fun W (hb : Below w.heap.size w W) => refRoot_any (n : Int) T.1 W T.2
  obtain ⟨R, hR⟩ : ∃ t : H32, rootF (n : Int) T.1 = t.1 := ⟨⟨_, rootF_len _ _⟩, rfl⟩
  simp only [hR] at CR ⊢
  have hRs : (hrow R.1).size = 32 := by rw [hrow_size]; exact R.2
  have hRo := hrow_one R.1
  clear hT hR hml hs hn
  go_enter Tryd.func31, Tryd.ntmps31
  go_upto_region 1 with fail
  refine wp_nameE _ (fun W1 hX => ?_)
  have y2 : W1.heap[w.heap.size]? = some (.cells #[Value.int .u8 0, Value.int .u8 0, Value.int .u8 0, Value.int .u8 0, Value.int .u8 0, Value.int .u8 0, Value.int .u8 0, Value.int .u8 0, Value.int .u8 0, Value.int .u8 0, Value.int .u8 0, Value.int .u8 0, Value.int .u8 0, Value.int .u8 0, Value.int .u8 0, Value.int .u8 0, Value.int .u8 0, Value.int .u8 0, Value.int .u8 0, Value.int .u8 0, Value.int .u8 0, Value.int .u8 0, Value.int .u8 0, Value.int .u8 0, Value.int .u8 0, Value.int .u8 0, Value.int .u8 0, Value.int .u8 0, Value.int .u8 0, Value.int .u8 0, Value.int .u8 0, Value.int .u8 0] 35 (0, 0)) := by rw [hX]; exact hq
  have hbel : Below w.heap.size w W1 := by rw [hX]; exact hb0
  clear hX hq hb0
  have hy2 := (Array.getElem?_eq_some_iff.1 y2).1
  go_wp2_with (first | (go_at_call 63; refine (CL _ hbel).mono ?_; rintro e w4 ⟨vh, rfl, hoh, hb⟩; obtain ⟨ah, ch, rfl, hrh, hh1, hh2⟩ := own_sliceH hoh; have y2 := cells_of y2 hb hy2; have hbel := hbel.trans (hb.mono hbel.size); have hy2 := Nat.lt_of_lt_of_le hy2 hb.size; clear hb hoh) | (go_at_call 62; refine (CT _ hbel ah ch hh1 hh2 hrh).mono ?_; rintro e w5 ⟨rfl, hb⟩; have y2 := cells_of y2 hb hy2; have hbel := hbel.trans (hb.mono hbel.size); have hy2 := Nat.lt_of_lt_of_le hy2 hb.size; clear hb) | (go_at_call 61; refine (CR _ hbel).mono ?_; rintro e w6 ⟨rfl, hb⟩; have y2 := cells_of y2 hb hy2; have hbel := hbel.trans (hb.mono hbel.size); have hy2 := Nat.lt_of_lt_of_le hy2 hb.size; clear hb) | (refine wpList_storeRowTo (Z := hrow R.1) rfl (.tmp 2) (.tmp 8) 35 rfl (by rw [hRs]; kernel_rfl) rfl (by rfl) y2 (by rw [hRs]; rfl) hRo ?_))
  have hrd := run_loadVar_row (P := Tryd.prog) _ _ 35 35 _ (0, 0) _ (setRow_heap _ _ _ _ _ _ y2) Tryd.underlying35 rfl (by rw [hRs]; kernel_rfl)
  refine bodyPost_ret (v := .agg (hrow R.1)) ?_ rfl ?_
  · simp [results, Tryd.results31, asAddr, Act.put, hrd]
    try rfl
  exact ⟨rfl, below_setRow hbel (Nat.le_refl _) _⟩
def Fact.leaf (k v : ByteArray) (i : Int) (WL : List H32) (B : Nat) : Fact := ⟨fun x w => ∃ pa pc, x = .agg (⟨k, v, i, pa, WL.length, pc, WL⟩ : LeafV).cells.toArray ∧ (⟨k, v, i, pa, WL.length, pc, WL⟩ : LeafV).held w B, fun x y z ⟨pa, pc, h1, h2⟩ hb => ⟨pa, pc, h1, h2.same (SameT.below hb)⟩⟩
def LeafPost (w : World) (d : LeafD) (e : Ending) (w' : World) : Prop := ∃ lf : LeafV, e = .returned (.agg lf.cells.toArray) ∧ lf.d = d ∧ lf.held w' w.heap.size ∧ Below w.heap.size w w'
set_option maxRecDepth 100000 in
set_option maxHeartbeats 6400000 in
theorem leafAt_any (a : Option Addr) (n cap : Nat) (l : List Pr) (ah : Option Addr) (ch : Nat) (i : Nat) (w : World) (hr : RowAt w a (l.flatMap Pr.cells)) (hn : l.length = n) (hi : i < n) (hn6 : n ≤ 1000000) (hcap : n ≤ cap) (hh1 : n ≤ ch) (hh2 : ch ≤ maxLen) (hh : RowAt w ah ((l.map leafH).flatMap H32.cells)) (hs : ∀ p ∈ l, p.k.size ≤ 300000 ∧ p.v.size ≤ 300000) :
    Calls Tryd.prog 65 #[.slice a n cap, .slice ah n ch, .int .i64 (i : Nat)] w (LeafPost w (mkD l i)) := by
  have hil : i < l.length := by omega
  have hq := heap_push w #[.string ⟨#[]⟩, .string ⟨#[]⟩, .int .i64 0, .slice none 0 0] 108
  have hb0 : Below w.heap.size w (w.alloc (.cells #[.string ⟨#[]⟩, .string ⟨#[]⟩, .int .i64 0, .slice none 0 0] 108)) := Below.alloc (Below.refl _ _) (Nat.le_refl _) _
  have hml : (l.map leafH).length = n := by rw [List.length_map, hn]
  have CY0 := fun W (hb : Below w.heap.size w W) => refWay_any n (l.map leafH) i ah ch W hml hi hn6 hh1 hh2 (hh.below hb) trivial
  unfold WayPost at CY0
  have hsz := hs _ (List.getElem_mem hil)
  have hmk : mkD l i = ⟨l[i].k, l[i].v, (i : Int), wayH (l.map leafH) i⟩ := by unfold mkD; rw [List.getElem?_eq_getElem hil]
  obtain ⟨WL, hWL⟩ : ∃ q, wayH (l.map leafH) i = q := ⟨_, rfl⟩
  simp only [hWL] at CY0
  rw [hWL] at hmk
  obtain ⟨b1, o1, rfl, hb1, hg1⟩ := pr_range hr hil
  obtain ⟨p, hp9⟩ : ∃ p, l[i] = p := ⟨_, rfl⟩
  rw [hp9] at hg1 hsz hmk
  have HMK := Lib.hid hmk
  unfold LeafPost
  have n0 : (0 : Int) ≤ (i : Int) := by omega
  have n1 : (i : Int) < (n : Int) := by omega
  have n2 : ((i : Nat) : Int).toNat = i := by omega
  clear hmk hp9 hWL hml hs hil hn
  go_enter Tryd.func65, Tryd.ntmps65
  go_upto_region 1 with fail
  refine wp_nameE _ (fun W1 hX => ?_)
  have y6 : W1.heap[w.heap.size]? = some (.cells #[.string ⟨#[]⟩, .string ⟨#[]⟩, .int .i64 0, .slice none 0 0] 108 (0, 0)) := by rw [hX]; exact hq
  have hbel : Below w.heap.size w W1 := by rw [hX]; exact hb0
  clear hX hq hb0
  have hy6 := (Array.getElem?_eq_some_iff.1 y6).1
  have q0 : W1.cell? ⟨b1, o1 + i * 2, none⟩ = some (.string p.k) := by rw [hbel.cell (p := ⟨b1, o1 + i * 2, none⟩) hb1]; exact hg1 0 _ rfl
  have q1 : W1.cell? ⟨b1, o1 + i * 2 + 1, none⟩ = some (.string p.v) := by rw [hbel.cell (p := ⟨b1, o1 + i * 2 + 1, none⟩) hb1]; exact hg1 1 _ rfl
  have hb1 := Nat.lt_of_lt_of_le hb1 hbel.size
  have CY := fun W (hb : Below W1.heap.size W1 W) => CY0 W (hbel.trans (hb.mono hbel.size))
  clear hg1 CY0
  refine wp_region_facts_tail 15 rfl [Fact.eq (.slice (some ⟨b1, o1, none⟩) n cap), Fact.eq (.int .i64 (i : Int)), Fact.eq (.pointer (some ⟨b1, o1 + i * 2, none⟩)), Fact.eq (.pointer (some ⟨b1, o1 + i * 2, none⟩)), Fact.eq (.string p.k), Fact.eq (.slice (some ⟨b1, o1, none⟩) n cap), Fact.eq (.int .i64 (i : Int)), Fact.eq (.pointer (some ⟨b1, o1 + i * 2, none⟩)), Fact.eq (.pointer (some ⟨b1, o1 + i * 2 + 1, none⟩)), Fact.eq (.string p.v), Fact.eq (.int .i64 (i : Int)), Fact.eq (.slice ah n ch), Fact.eq (.int .i64 (i : Int)), Fact.own w.heap.size WL.length (WL.flatMap H32.cells), Fact.leaf p.k p.v (i : Int) WL w.heap.size] (by kernel_rfl) (by kernel_rfl) (by kernel_rfl) (by kernel_rfl) (by kernel_rfl) (fun x => by simp only [List.take_succ_cons, List.take_zero, fillFrom, Act.put, List.setIfInBounds_toArray, List.set_cons_succ, List.set_cons_zero]; rfl) ?_ ?_
  · refine ⟨?_, ?_, ?_, ?_, ?_, ?_, ?_, ?_, ?_, ?_, ?_, ?_, ?_, ?_, ?_, trivial⟩
    · intro x w' hbw hd
      clear hd
      go_wp2_with fail
      exact frPost_mk rfl (by repeat (first | assumption | exact Below.refl _ _ | refine bch ?_ (by assumption) | refine Below.alloc ?_ (by simp) _)) rfl
    · intro x w' hbw hd
      clear hd
      go_wp2_with fail
      exact frPost_mk rfl (by repeat (first | assumption | exact Below.refl _ _ | refine bch ?_ (by assumption) | refine Below.alloc ?_ (by simp) _)) rfl
    · intro x w' hbw hd
      have d0 : x 0 = .slice (some ⟨b1, o1, none⟩) n cap := hd 0 rfl
      have d1 : x 1 = .int .i64 (i : Int) := hd 1 rfl
      clear hd
      go_wp2_with fail
      exact frPost_mk rfl (by repeat (first | assumption | exact Below.refl _ _ | refine bch ?_ (by assumption) | refine Below.alloc ?_ (by simp) _)) (by first | rfl | (show Value.pointer _ = Value.pointer _; simp))
    · intro x w' hbw hd
      have d2 : x 2 = .pointer (some ⟨b1, o1 + i * 2, none⟩) := hd 2 rfl
      clear hd
      go_wp2_with fail
      exact frPost_mk rfl (by repeat (first | assumption | exact Below.refl _ _ | refine bch ?_ (by assumption) | refine Below.alloc ?_ (by simp) _)) rfl
    · intro x w' hbw hd
      have d3 : x 3 = .pointer (some ⟨b1, o1 + i * 2, none⟩) := hd 3 rfl
      clear hd
      have cq : w'.cell? ⟨b1, o1 + i * 2, none⟩ = some (.string p.k) := by rw [hbw.cell (p := ⟨b1, o1 + i * 2, none⟩) hb1]; exact q0
      go_wp2_with (first | fail)
      exact frPost_mk rfl (by repeat (first | assumption | exact Below.refl _ _ | refine bch ?_ (by assumption) | refine Below.alloc ?_ (by simp) _)) rfl
    · intro x w' hbw hd
      clear hd
      go_wp2_with fail
      exact frPost_mk rfl (by repeat (first | assumption | exact Below.refl _ _ | refine bch ?_ (by assumption) | refine Below.alloc ?_ (by simp) _)) rfl
    · intro x w' hbw hd
      clear hd
      go_wp2_with fail
      exact frPost_mk rfl (by repeat (first | assumption | exact Below.refl _ _ | refine bch ?_ (by assumption) | refine Below.alloc ?_ (by simp) _)) rfl
    · intro x w' hbw hd
      have d5 : x 5 = .slice (some ⟨b1, o1, none⟩) n cap := hd 5 rfl
      have d6 : x 6 = .int .i64 (i : Int) := hd 6 rfl
      clear hd
      go_wp2_with fail
      exact frPost_mk rfl (by repeat (first | assumption | exact Below.refl _ _ | refine bch ?_ (by assumption) | refine Below.alloc ?_ (by simp) _)) (by first | rfl | (show Value.pointer _ = Value.pointer _; simp))
    · intro x w' hbw hd
      have d7 : x 7 = .pointer (some ⟨b1, o1 + i * 2, none⟩) := hd 7 rfl
      clear hd
      go_wp2_with fail
      exact frPost_mk rfl (by repeat (first | assumption | exact Below.refl _ _ | refine bch ?_ (by assumption) | refine Below.alloc ?_ (by simp) _)) rfl
    · intro x w' hbw hd
      have d8 : x 8 = .pointer (some ⟨b1, o1 + i * 2 + 1, none⟩) := hd 8 rfl
      clear hd
      have cq : w'.cell? ⟨b1, o1 + i * 2 + 1, none⟩ = some (.string p.v) := by rw [hbw.cell (p := ⟨b1, o1 + i * 2 + 1, none⟩) hb1]; exact q1
      go_wp2_with (first | fail)
      exact frPost_mk rfl (by repeat (first | assumption | exact Below.refl _ _ | refine bch ?_ (by assumption) | refine Below.alloc ?_ (by simp) _)) rfl
    · intro x w' hbw hd
      clear hd
      go_wp2_with fail
      exact frPost_mk rfl (by repeat (first | assumption | exact Below.refl _ _ | refine bch ?_ (by assumption) | refine Below.alloc ?_ (by simp) _)) rfl
    · intro x w' hbw hd
      clear hd
      go_wp2_with fail
      exact frPost_mk rfl (by repeat (first | assumption | exact Below.refl _ _ | refine bch ?_ (by assumption) | refine Below.alloc ?_ (by simp) _)) rfl
    · intro x w' hbw hd
      clear hd
      go_wp2_with fail
      exact frPost_mk rfl (by repeat (first | assumption | exact Below.refl _ _ | refine bch ?_ (by assumption) | refine Below.alloc ?_ (by simp) _)) rfl
    · intro x w' hbw hd
      have d11 : x 11 = .slice ah n ch := hd 11 rfl
      have d12 : x 12 = .int .i64 (i : Int) := hd 12 rfl
      clear hd
      have CC := CY w' hbw
      go_wp2_with (first | (go_at_call 93; refine CC.mono ?_; rintro e wx ⟨vx, rfl, hox, hbx⟩))
      exact frPost_mk rfl (by repeat (first | assumption | exact Below.refl _ _ | refine bch ?_ (by assumption) | refine Below.alloc ?_ (by simp) _)) (own_lower hox (Nat.le_trans hbel.size hbw.size))
    · intro x w' hbw hd
      have d4 : x 4 = .string p.k := hd 4 rfl
      have d9 : x 9 = .string p.v := hd 9 rfl
      have d10 : x 10 = .int .i64 (i : Int) := hd 10 rfl
      have o13 : (Fact.own w.heap.size WL.length (WL.flatMap H32.cells)).holds (x 13) w' := hd 13 rfl
      clear hd
      have o13 : w'.ownsRow w.heap.size 35 32 (x 13) WL.length (WL.flatMap H32.cells) := o13
      obtain ⟨pa, pc, hx13, hry, hp1, hp2⟩ := own_sliceH o13
      go_wp2_with (first | fail)
      refine frPost_mk rfl (by repeat (first | assumption | exact Below.refl _ _ | refine bch ?_ (by assumption) | refine Below.alloc ?_ (by simp) _)) ?_; exact ⟨pa, pc, rfl, ⟨⟨hry, rfl, hp1, hp2, by show p.k.size ≤ maxLen; unfold maxLen; omega, by show p.v.size ≤ maxLen; unfold maxLen; omega⟩, own_held (hx13 ▸ o13)⟩⟩
  · intro x w' hbw hall
    obtain ⟨pa, pc, hx14, hheld⟩ := (show (Fact.leaf p.k p.v (i : Int) WL w.heap.size).holds (x 14) w' from hall 14 (by decide))
    clear hall
    have y6 := cells_of y6 hbw hy6
    have hbel := hbel.trans (hbw.mono hbel.size)
    simp only [hx14, List.drop_succ_cons, List.drop_zero]
    go_wp2_with (refine wpList_storeRowTo (Z := (⟨p.k, p.v, (i : Int), pa, WL.length, pc, WL⟩ : LeafV).cells.toArray) rfl (.tmp 6) (.tmp 21) 108 rfl (by kernel_rfl) rfl (by rfl) y6 rfl (lv_one _) ?_)
    have hrd := run_loadVar_mid (P := Tryd.prog) _ w.heap.size 0 108 ((⟨p.k, p.v, (i : Int), pa, WL.length, pc, WL⟩ : LeafV).cells.toArray : Array Value).toList _ (rangeAt_row5 (setRow_heap _ _ _ _ _ _ y6)) Tryd.underlying108 rfl (by kernel_rfl)
    refine bodyPost_ret (v := .agg (⟨p.k, p.v, (i : Int), pa, WL.length, pc, WL⟩ : LeafV).cells.toArray) ?_ rfl ?_
    · simp [results, Tryd.results65, asAddr]
      exact hrd
    exact ⟨(⟨p.k, p.v, (i : Int), pa, WL.length, pc, WL⟩ : LeafV), rfl, by rw [HMK.out]; rfl, hheld.same (SameT.setRowT (by decide) y6), below_setRow hbel (Nat.le_refl _) _⟩
end Go.Proofs.YtpledhipdiephaaDoor
