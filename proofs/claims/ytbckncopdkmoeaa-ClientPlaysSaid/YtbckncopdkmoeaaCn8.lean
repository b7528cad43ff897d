/- The reference's Update of headers. -/
import Derived.Test.YtbckncopdkmoeaaCn7
import Derived.Test.YtbckncopdkmoeaaInsG
import Derived.Lib.AppendZerosOnto
import Derived.BigRegion
import Derived.RegionTactic
import Derived.BigQuiet
import Derived.Deep.QuietTactic
import Derived.Deep.MidRow
import Derived.Deep.RegionLaw
import Derived.Deep.CutRange
import Derived.LoopTactic
import Derived.BigFrame
import Derived.OwnWalk
import Derived.OneCell
import Derived.Laws.OwnMore
import Derived.Deep.RegionHeld
import Derived.WalkKit
import Derived.ProofKit
import Derived.Handy
import Derived.Below
import Derived.Lib.Hide
import Derived.IntWalk
import Derived.Outline
import Derived.WalkLawsBesides
import Derived.WalkSpells
namespace Go.Proofs.Ytbckncopdkmoeaa
open Go.RowKit
attribute [local go_sem] strV
set_option linter.unusedVariables false
theorem ins_at {M : List Hd} {h : Hd} {k : Nat} (h1 : ∀ y ∈ M.take k, y.ht < h.ht) (h2 : ∀ y ∈ M.drop k, h.ht < y.ht) : insH M h = M.take k ++ h :: M.drop k := by
  unfold insH
  have e := (List.take_append_drop k M).symm
  have q1 : M.filter (fun y => decide (y.ht < h.ht)) = M.take k := by
    rw [congrArg (List.filter _) e, List.filter_append, List.filter_eq_self.2 (fun y hy => decide_eq_true (h1 y hy)), List.filter_eq_nil_iff.2 (fun y hy => by have := h2 y hy; simp; omega), List.append_nil]
  have q2 : M.filter (fun y => decide (h.ht < y.ht)) = M.drop k := by
    rw [congrArg (List.filter _) e, List.filter_append, List.filter_eq_nil_iff.2 (fun y hy => by have := h1 y hy; simp; omega), List.filter_eq_self.2 (fun y hy => decide_eq_true (h2 y hy)), List.nil_append]
  rw [q1, q2]
theorem row_news {w : World} {a : Option Addr} {vs : List Value} (h : RowAt w a vs) : ∀ ad, a = some ad → ∀ j u, vs[j]? = some u → w.cell? (ad.add j) = some u := by
  intro ad e j u hu
  have hj := (List.getElem?_eq_some_iff.1 hu).1
  rcases h with rfl | ⟨b, off, e2, _, hc⟩
  · simp at hj
  · rw [e] at e2
    cases e2
    rw [Addr.add_lit, hc j hj]; exact hu
theorem own_formB {w : World} {base : Nat} {e : TypeId} {size n n' c : Nat} {ad : Addr} {xs : List Value} (h : w.ownsRow base e size (.slice (some ad) n c) n' xs) : ∃ g, ad = ⟨g, 0, none⟩ := by
  rcases h.2 with ⟨h1, _⟩ | ⟨g, cap, cur, h1, _⟩
  · cases h1
  · simp only [Value.slice.injEq, Option.some.injEq] at h1
    exact ⟨g, h1.1⟩
theorem hds_take8 {w : World} {a : Option Addr} {l : List Hd} (h : RowAt w a (l.flatMap Hd.L)) (k : Nat) : RowAt w a ((l.take k).flatMap Hd.L) := by
  have := h.take (k * 34)
  rwa [take_flat Hd.L 34 Hd.L_len] at this
theorem hds_dropN {w : World} {g : Nat} {l : List Hd} (h : RowAt w (some ⟨g, 0, none⟩) (l.flatMap Hd.L)) (k : Nat) : ∀ ad, some (⟨g, k * 34, none⟩ : Addr) = some ad → ∀ j u, ((l.drop k).flatMap Hd.L)[j]? = some u → w.cell? (ad.add j) = some u := by
  intro ad e j u hu
  cases e
  have e2 : (l.flatMap Hd.L) = (l.take k).flatMap Hd.L ++ (l.drop k).flatMap Hd.L := by rw [← List.flatMap_append, List.take_append_drop]
  have hj := (List.getElem?_eq_some_iff.1 hu).1
  by_cases hk : k ≤ l.length
  · have hl : ((l.take k).flatMap Hd.L).length = k * 34 := by rw [hds_len, List.length_take, Nat.min_eq_left hk]
    have := row_news h ⟨g, 0, none⟩ rfl (k * 34 + j) u (by rw [e2, List.getElem?_append_right (by omega), hl, Nat.add_sub_cancel_left]; exact hu)
    rw [Addr.add_lit, Nat.zero_add] at this
    rw [Addr.add_lit]; exact this
  · rw [List.drop_of_length_le (by omega)] at hj
    simp at hj
theorem hds_one (l : List Hd) : ∀ u ∈ l.flatMap Hd.L, u.oneCell' = true := by
  intro u hu
  obtain ⟨h, _, hh⟩ := List.mem_flatMap.1 hu
  exact h.L_one u hh
theorem some_funH {w : World} {ad0 : Addr} {vs : List Value} (h : ∀ j u, vs[j]? = some u → w.cell? (ad0.add j) = some u) : ∀ ad, some ad0 = some ad → ∀ j u, vs[j]? = some u → w.cell? (ad.add j) = some u := by
  intro ad e
  obtain rfl := Option.some.inj e
  exact h
theorem hd_new {w : World} {g : Nat} {h : Hd} {t : TypeId} (hz : w.heap[g]? = some (.cells h.row t (0, 0))) : ∀ j u, h.L[j]? = some u → w.cell? ((⟨g, 0, none⟩ : Addr).add j) = some u := by
  intro j u hu
  rw [Addr.add_lit, Nat.zero_add, cell_heap hz]
  unfold Hd.row
  simpa using hu
theorem step_oneH {ops : Array Oper} {o : Oper} {a : Act} {w : World} {K : Act → World → Prop} {Q : Exit → Act → World → Prop} {E : Prop} (hgd : o.guard = none) (x : Operand) (ho : o.op = .buildSlice 36 1 #[(0, x)]) (h : Hd) (hx : a.eval x = .agg h.row)
    (hK : K (a.put o.dst (.slice (some ⟨w.heap.size, 0, none⟩) 1 1)) (w.alloc (.cells h.row 43))) :
    if Region.wanted o (yielded ops a.tmps) = true then Oper.wp Try.prog o a w K Q else E := by
  have hw : Region.wanted o (yielded ops a.tmps) = true := by simp [Region.wanted, hgd]
  rw [if_pos hw]
  unfold Oper.wp
  simp [execOp, ho, hx, one_hd h.row h.row_size w, Result.andThen]
  exact hK
set_option maxRecDepth 100000 in
set_option maxHeartbeats 6400000 in
theorem upd12_any (h : Hd) (v : Value) (n B : Nat) (M : List Hd) (w : World) (hown : w.ownsRow B 43 34 v n (M.flatMap Hd.L)) (hn : M.length = n) (hn6 : n ≤ 1000) (hrs : risesH M) (hB : B ≤ w.heap.size) :
    Calls Try.prog 22 #[v, .agg h.row] w fun e w' => ∃ v', e = .returned (.tuple #[v', .bool (!knownB M h.ht)]) ∧ w'.ownsRow B 43 34 v' (if knownB M h.ht then M else insH M h).length ((if knownB M h.ht then M else insH M h).flatMap Hd.L) ∧ Below w.heap.size w w' := by
  obtain ⟨i0, hi0, hz0, hzs, hzb⟩ := info_parts Try.infoHd3
  obtain ⟨a, cap, rfl, hr, hc1, hc2, hnone⟩ := own_sliceN hown
  have HN := Lib.hid hn
  have HRS := Lib.hid hrs
  unfold maxLen at hc2
  have CK := fun W (hb : Below w.heap.size w W) => known12_any a n cap M h.ht W (hr.below hb) hn (by omega)
  obtain ⟨kv, hkv⟩ : ∃ x, knownV M h.ht = x := ⟨_, rfl⟩
  obtain ⟨kb, hkb⟩ : ∃ x, knownB M h.ht = x := ⟨_, rfl⟩
  simp only [hkv, hkb] at CK ⊢
  have HKB := Lib.hid hkb
  clear hkv hkb hn hrs
  have hq0 := heap_push w h.row 43
  have hb0 : Below w.heap.size w (w.alloc (.cells h.row 43)) := (Below.refl _ _).alloc (Nat.le_refl _) _
  cases kb
  rotate_left
  · simp only [if_true, Bool.not_true]
    rw [HN.out]
    have HW := Lib.hid hown
    go_enter Try.func22, Try.ntmps22
    go_upto_region 1 with fail
    refine wp_nameE _ (fun W1 hW1 => ?_)
    have hq1 : W1.heap[w.heap.size]? = some (.cells h.row 43 (0, 0)) := by rw [hW1]; exact hq0
    have hb1 : Below w.heap.size w W1 := by rw [hW1]; exact hb0
    have hcy : W1.cell? ⟨w.heap.size, 0, none⟩ = some (.int .i64 h.ht) := (cell_heap hq1 0).trans h.at0
    clear hW1 hq0 hb0 hown
    go_wp2_with (first | (go_at_call 24; refine (CK _ hb1).mono ?_; rintro e w3 ⟨rfl, hb3⟩; have hA3 := heap_push w3 zeroHd.row 43; have hbw3 : Below w3.heap.size w3 ((w3.alloc (.cells zeroHd.row 43)).setRow w3.heap.size kv.row) := below_setRow ((Below.refl _ _).alloc (Nat.le_refl _) _) (Nat.le_refl _) _) | (refine wpList_storeRowTo rfl (.tmp 6) (.tmp 14) 43 rfl (infoHd_row _) rfl rfl hA3 (by rw [Hd.row_size, Hd.row_size]) (Hd.row_one _) ?_))
    go_returns
    have hbz := (hb1.trans (hb3.mono hb1.size)).trans (hbw3.mono (Nat.le_trans hb1.size hb3.size))
    exact ⟨_, rfl, own_kept9 HW.out hbz, hbz⟩
  · simp only [Bool.not_false, if_false, Bool.false_eq_true]
    go_enter Try.func22, Try.ntmps22
    go_upto_region 1 with fail
    refine wp_nameE _ (fun W1 hW1 => ?_)
    have hq1 : W1.heap[w.heap.size]? = some (.cells h.row 43 (0, 0)) := by rw [hW1]; exact hq0
    have hb1 : Below w.heap.size w W1 := by rw [hW1]; exact hb0
    have hcy : W1.cell? ⟨w.heap.size, 0, none⟩ = some (.int .i64 h.ht) := (cell_heap hq1 0).trans h.at0
    clear hW1 hq0 hb0
    go_wp2_with (first | (go_at_call 24; refine (CK _ hb1).mono ?_; rintro e w3 ⟨rfl, hb3⟩; have hA3 := heap_push w3 zeroHd.row 43; have hbw3 : Below w3.heap.size w3 ((w3.alloc (.cells zeroHd.row 43)).setRow w3.heap.size kv.row) := below_setRow ((Below.refl _ _).alloc (Nat.le_refl _) _) (Nat.le_refl _) _; have hq3 := cells_of hq1 hb3 (row_lt hq1); have hq4 := cells_of hq3 hbw3 (row_lt hq3); have hbz := (hb1.trans (hb3.mono hb1.size)).trans (hbw3.mono (Nat.le_trans hb1.size hb3.size))) | (refine wpList_storeRowTo rfl (.tmp 6) (.tmp 14) 43 rfl (infoHd_row _) rfl rfl hA3 (by rw [Hd.row_size, Hd.row_size]) (Hd.row_one _) ?_))
    refine wp_nameE _ (fun W4 hW4 => ?_)
    have hq4 : W4.heap[w.heap.size]? = some (.cells h.row 43 (0, 0)) := by rw [hW4]; exact hq4
    have hbz : Below w.heap.size w W4 := by rw [hW4]; exact hbz
    clear hW4 hA3 hbw3 hq3 hq1 hb1 hb3 CK hcy
    go_loopw [8] (fun i wr => ∃ k : Nat, k ≤ n ∧ i = .int .i64 k ∧ (∀ y ∈ M.take k, y.ht < h.ht) ∧ Below W4.heap.size W4 wr) (fun i _ => n - (intOf i).toNat)
    case atStart => exact ⟨0, Nat.zero_le _, rfl, by simp, Below.refl _ _⟩
    case round =>
      obtain ⟨k, hk, rfl, hlow, hbe⟩ := hrel
      have HLOW := Lib.hid hlow
      have hbelr := hbz.trans (hbe.mono hbz.size)
      have hqr := cells_of hq4 hbe (row_lt hq4)
      have hcx : wr.cell? ⟨w.heap.size, 0, none⟩ = some (.int .i64 h.ht) := (cell_heap hqr 0).trans h.at0
      clear hlow
      obtain ⟨x, hx9⟩ : ∃ x, h.ht = x := ⟨_, rfl⟩
      rw [hx9] at hcx HLOW
      have HX := Lib.hid hx9
      clear hx9
      go_upto_region 5 with fail
      go_cut [31] from 18 to 31 (fun v wx => ∃ c : Bool, v = .bool c ∧ (c = true → k < n ∧ ∀ y ∈ M.take (k + 1), y.ht < x) ∧ (c = false → ∀ y ∈ M.drop k, x < y.ht) ∧ Below wr.heap.size wr wx)
      case first =>
        by_cases hlt : k < n
        · have d9 : decide ((k : Int) < (n : Int)) = true := decide_eq_true (by omega)
          have d9n : decide (k < n) = true := decide_eq_true hlt
          have hkl : k < M.length := by rw [HN.out]; exact hlt
          obtain ⟨b1, o1, rfl, hbx0, hg1⟩ := hds_at (hr.below hbelr) hkl
          have hbx := hbx0
          have hcy : wr.cell? ⟨b1, o1 + k * 34, none⟩ = some (.int .i64 M[k].ht) := hg1 0 _ rfl
          have i0' : (0 : Int) ≤ (k : Int) := by omega
          have i1 : (k : Int) < (n : Int) := by omega
          have i2 : ((k : Nat) : Int).toNat = k := by omega
          have HF := Lib.hid (show (decide (M[k].ht < x) = true → ∀ y ∈ M.take (k + 1), y.ht < x) ∧ (decide (M[k].ht < x) = false → ∀ y ∈ M.drop k, x < y.ht) by
            constructor
            · intro hc y hy
              rw [List.take_succ_eq_append_getElem hkl] at hy
              rcases List.mem_append.1 hy with hy | hy
              · exact HLOW.out y hy
              · rw [List.mem_singleton.1 hy]; exact of_decide_eq_true hc
            · intro hc y hy
              have hne : ∀ z ∈ M, z.ht ≠ x := fun z hz he => by
                have := knownB_iff.2 ⟨z, hz, he⟩
                rw [← HX.out, HKB.out] at this
                cases this
              have h1 : x < M[k].ht := by have := of_decide_eq_false hc; have := hne M[k] (List.getElem_mem hkl); omega
              rw [List.drop_eq_getElem_cons hkl, List.mem_cons] at hy
              rcases hy with rfl | hy
              · exact h1
              · obtain ⟨j, hj, rfl⟩ := List.getElem_of_mem hy
                rw [List.getElem_drop]
                have := List.pairwise_iff_getElem.1 HRS.out k (k + 1 + j) hkl (by rw [List.length_drop] at hj; omega) (by omega)
                omega)
          obtain ⟨y, hy9⟩ : ∃ y, M[k].ht = y := ⟨_, rfl⟩
          rw [hy9] at hcy HF
          clear hy9 hg1
          obtain ⟨c, hc9⟩ : ∃ c, decide (y < x) = c := ⟨_, rfl⟩
          rw [hc9] at HF
          try simp only [List.append_eq, List.cons_append, List.nil_append]
          refine wp_region_held_drew (S := fun W => Below wr.heap.size wr W) (by kernel_rfl) ((Below.refl _ _).drew) (fun hS0 => ?_)
          refine wpAnyH_take (i := 0) (v := .int .i64 (k : Int)) rfl (by kernel_rfl) (by kernel_rfl) (by kernel_rfl) (fun _ _ _ h => h) (Yields.yieldsIf (Or.inl ⟨by rfl, fun w9 => by (go_simp; first | done | with_reducible rfl | (intro h9; exfalso; omega))⟩)) hS0 ?_
          change wpAnyH _ _ _ _ _ _ _ (Act.put _ (some 18) _) _; dsimp only [Act.put]; simp only [List.setIfInBounds_toArray, List.set_cons_succ, List.set_cons_zero]
          refine wpAnyH_take (i := 1) (v := .slice (some ⟨b1, o1, none⟩) n cap) rfl (by kernel_rfl) (by kernel_rfl) (by kernel_rfl) (fun _ _ _ h => h) (Yields.yieldsIf (Or.inl ⟨by rfl, fun w9 => by (go_simp; first | done | with_reducible rfl | (intro h9; exfalso; omega))⟩)) hS0 ?_
          change wpAnyH _ _ _ _ _ _ _ (Act.put _ (some 19) _) _; dsimp only [Act.put]; simp only [List.setIfInBounds_toArray, List.set_cons_succ, List.set_cons_zero]
          refine wpAnyH_take (i := 2) (v := .int .i64 (n : Int)) rfl (by kernel_rfl) (by kernel_rfl) (by kernel_rfl) (fun _ _ _ h => h) (Yields.yieldsIf (Or.inl ⟨by rfl, fun w9 => by (go_simp; first | done | with_reducible rfl | (intro h9; exfalso; omega))⟩)) hS0 ?_
          change wpAnyH _ _ _ _ _ _ _ (Act.put _ (some 20) _) _; dsimp only [Act.put]; simp only [List.setIfInBounds_toArray, List.set_cons_succ, List.set_cons_zero]
          refine wpAnyH_take (i := 3) (v := .bool true) rfl (by kernel_rfl) (by kernel_rfl) (by kernel_rfl) (fun _ _ _ h => h) (Yields.yieldsIf (Or.inl ⟨by rfl, fun w9 => by (go_simp; first | done | with_reducible rfl | (intro h9; exfalso; omega))⟩)) hS0 ?_
          change wpAnyH _ _ _ _ _ _ _ (Act.put _ (some 21) _) _; dsimp only [Act.put]; simp only [List.setIfInBounds_toArray, List.set_cons_succ, List.set_cons_zero]
          refine wpAnyH_take (i := 4) (v := .bool true) rfl (by kernel_rfl) (by kernel_rfl) (by kernel_rfl) (fun _ _ _ h => h) (Yields.yieldsIf (Or.inl ⟨by rfl, fun w9 => by (go_simp; first | done | with_reducible rfl | (intro h9; exfalso; omega))⟩)) hS0 ?_
          change wpAnyH _ _ _ _ _ _ _ (Act.put _ (some 22) _) _; dsimp only [Act.put]; simp only [List.setIfInBounds_toArray, List.set_cons_succ, List.set_cons_zero]
          refine wpAnyH_take (i := 5) (v := .slice (some ⟨b1, o1, none⟩) n cap) rfl (by kernel_rfl) (by kernel_rfl) (by kernel_rfl) (fun _ _ _ h => h) (Yields.yieldsIf (Or.inl ⟨by rfl, fun w9 => by (go_simp; first | done | with_reducible rfl | (intro h9; exfalso; omega))⟩)) hS0 ?_
          change wpAnyH _ _ _ _ _ _ _ (Act.put _ (some 23) _) _; dsimp only [Act.put]; simp only [List.setIfInBounds_toArray, List.set_cons_succ, List.set_cons_zero]
          refine wpAnyH_take (i := 6) (v := .int .i64 (k : Int)) rfl (by kernel_rfl) (by kernel_rfl) (by kernel_rfl) (fun _ _ _ h => h) (Yields.yieldsIf (Or.inl ⟨by rfl, fun w9 => by (go_simp; first | done | with_reducible rfl | (intro h9; exfalso; omega))⟩)) hS0 ?_
          change wpAnyH _ _ _ _ _ _ _ (Act.put _ (some 24) _) _; dsimp only [Act.put]; simp only [List.setIfInBounds_toArray, List.set_cons_succ, List.set_cons_zero]
          refine wpAnyH_take (i := 7) (v := .pointer (some ⟨b1, o1 + k * 34, none⟩)) rfl (by kernel_rfl) (by kernel_rfl) (by kernel_rfl) (fun _ _ _ h => h) (Yields.yieldsIf (Or.inl ⟨by rfl, fun w9 => by (go_simp; first | done | with_reducible rfl | (intro h9; exfalso; omega))⟩)) hS0 ?_
          change wpAnyH _ _ _ _ _ _ _ (Act.put _ (some 25) _) _; dsimp only [Act.put]; simp only [List.setIfInBounds_toArray, List.set_cons_succ, List.set_cons_zero]
          refine wpAnyH_take (i := 8) (v := .pointer (some ⟨b1, o1 + k * 34, none⟩)) rfl (by kernel_rfl) (by kernel_rfl) (by kernel_rfl) (fun _ _ _ h => h) (Yields.yieldsIf (Or.inl ⟨by rfl, fun w9 => by (go_simp; first | done | with_reducible rfl | (intro h9; exfalso; omega))⟩)) hS0 ?_
          change wpAnyH _ _ _ _ _ _ _ (Act.put _ (some 26) _) _; dsimp only [Act.put]; simp only [List.setIfInBounds_toArray, List.set_cons_succ, List.set_cons_zero]
          refine wpAnyH_take (i := 9) (v := .int .i64 y) rfl (by kernel_rfl) (by kernel_rfl) (by kernel_rfl) (fun _ _ _ h => h) (Or.inl ⟨by rfl, fun w9 hS9 => by have hc9 := (hS9.cell hbx).trans hcy; go_simp; try with_reducible rfl⟩) hS0 ?_
          change wpAnyH _ _ _ _ _ _ _ (Act.put _ (some 27) _) _; dsimp only [Act.put]; simp only [List.setIfInBounds_toArray, List.set_cons_succ, List.set_cons_zero]
          refine wpAnyH_take (i := 10) (v := .pointer (some ⟨w.heap.size, 0, none⟩)) rfl (by kernel_rfl) (by kernel_rfl) (by kernel_rfl) (fun _ _ _ h => h) (Yields.yieldsIf (Or.inl ⟨by rfl, fun w9 => by (go_simp; first | done | with_reducible rfl | (intro h9; exfalso; omega))⟩)) hS0 ?_
          change wpAnyH _ _ _ _ _ _ _ (Act.put _ (some 28) _) _; dsimp only [Act.put]; simp only [List.setIfInBounds_toArray, List.set_cons_succ, List.set_cons_zero]
          refine wpAnyH_take (i := 11) (v := .int .i64 x) rfl (by kernel_rfl) (by kernel_rfl) (by kernel_rfl) (fun _ _ _ h => h) (Or.inl ⟨by rfl, fun w9 hS9 => by have hc9 := (hS9.cell (row_lt hqr)).trans hcx; go_simp; try with_reducible rfl⟩) hS0 ?_
          change wpAnyH _ _ _ _ _ _ _ (Act.put _ (some 29) _) _; dsimp only [Act.put]; simp only [List.setIfInBounds_toArray, List.set_cons_succ, List.set_cons_zero]
          refine wpAnyH_take (i := 12) (v := .bool c) rfl (by kernel_rfl) (by kernel_rfl) (by kernel_rfl) (fun _ _ _ h => h) (Yields.yieldsIf (Or.inl ⟨by rfl, fun w9 => by (go_simp; first | done | with_reducible rfl | (intro h9; exfalso; omega))⟩)) hS0 ?_
          change wpAnyH _ _ _ _ _ _ _ (Act.put _ (some 30) _) _; dsimp only [Act.put]; simp only [List.setIfInBounds_toArray, List.set_cons_succ, List.set_cons_zero]
          refine wpAnyH_take (i := 13) (v := .bool c) rfl (by kernel_rfl) (by kernel_rfl) (by kernel_rfl) (fun _ _ _ h => h) (Yields.yieldsIf (Or.inl ⟨by rfl, fun w9 => by (go_simp; first | done | with_reducible rfl | (intro h9; exfalso; omega))⟩)) hS0 ?_
          change wpAnyH _ _ _ _ _ _ _ (Act.put _ (some 31) _) _; dsimp only [Act.put]; simp only [List.setIfInBounds_toArray, List.set_cons_succ, List.set_cons_zero]
          refine wpAnyH_done (by kernel_rfl) ?_ _
          go_wp2
          go_meet
          exact ⟨c, rfl, fun hc => ⟨hlt, HF.out.1 hc⟩, HF.out.2, hS0⟩
        · have d9 : decide ((k : Int) < (n : Int)) = false := decide_eq_false (by omega)
          have d9n : decide (k < n) = false := decide_eq_false hlt
          have HDR : ∀ y ∈ M.drop k, x < y.ht := fun y hy => by rw [List.drop_of_length_le (by rw [HN.out]; omega)] at hy; cases hy
          try simp only [List.append_eq, List.cons_append, List.nil_append]
          refine wp_region_held_drew (S := fun W => Below wr.heap.size wr W) (by kernel_rfl) ((Below.refl _ _).drew) (fun hS0 => ?_)
          refine wpAnyH_take (i := 0) (v := .int .i64 (k : Int)) rfl (by kernel_rfl) (by kernel_rfl) (by kernel_rfl) (fun _ _ _ h => h) (Yields.yieldsIf (Or.inl ⟨by rfl, fun w9 => by (go_simp; first | done | with_reducible rfl | (intro h9; exfalso; omega))⟩)) hS0 ?_
          change wpAnyH _ _ _ _ _ _ _ (Act.put _ (some 18) _) _; dsimp only [Act.put]; simp only [List.setIfInBounds_toArray, List.set_cons_succ, List.set_cons_zero]
          refine wpAnyH_take (i := 1) (v := .slice a n cap) rfl (by kernel_rfl) (by kernel_rfl) (by kernel_rfl) (fun _ _ _ h => h) (Yields.yieldsIf (Or.inl ⟨by rfl, fun w9 => by (go_simp; first | done | with_reducible rfl | (intro h9; exfalso; omega))⟩)) hS0 ?_
          change wpAnyH _ _ _ _ _ _ _ (Act.put _ (some 19) _) _; dsimp only [Act.put]; simp only [List.setIfInBounds_toArray, List.set_cons_succ, List.set_cons_zero]
          refine wpAnyH_take (i := 2) (v := .int .i64 (n : Int)) rfl (by kernel_rfl) (by kernel_rfl) (by kernel_rfl) (fun _ _ _ h => h) (Yields.yieldsIf (Or.inl ⟨by rfl, fun w9 => by (go_simp; first | done | with_reducible rfl | (intro h9; exfalso; omega))⟩)) hS0 ?_
          change wpAnyH _ _ _ _ _ _ _ (Act.put _ (some 20) _) _; dsimp only [Act.put]; simp only [List.setIfInBounds_toArray, List.set_cons_succ, List.set_cons_zero]
          refine wpAnyH_take (i := 3) (v := .bool false) rfl (by kernel_rfl) (by kernel_rfl) (by kernel_rfl) (fun _ _ _ h => h) (Yields.yieldsIf (Or.inl ⟨by rfl, fun w9 => by (go_simp; first | done | with_reducible rfl | (intro h9; exfalso; omega))⟩)) hS0 ?_
          change wpAnyH _ _ _ _ _ _ _ (Act.put _ (some 21) _) _; dsimp only [Act.put]; simp only [List.setIfInBounds_toArray, List.set_cons_succ, List.set_cons_zero]
          refine wpAnyH_take (i := 4) (v := .bool false) rfl (by kernel_rfl) (by kernel_rfl) (by kernel_rfl) (fun _ _ _ h => h) (Yields.yieldsIf (Or.inl ⟨by rfl, fun w9 => by (go_simp; first | done | with_reducible rfl | (intro h9; exfalso; omega))⟩)) hS0 ?_
          change wpAnyH _ _ _ _ _ _ _ (Act.put _ (some 22) _) _; dsimp only [Act.put]; simp only [List.setIfInBounds_toArray, List.set_cons_succ, List.set_cons_zero]
          refine wpAnyH_take (i := 5) (v := undef) rfl (by kernel_rfl) (by kernel_rfl) (by kernel_rfl) (fun _ _ _ h => h) (Or.inr ⟨by rfl, rfl⟩) hS0 ?_
          change wpAnyH _ _ _ _ _ _ _ (Act.put _ (some 23) _) _; dsimp only [Act.put]; simp only [List.setIfInBounds_toArray, List.set_cons_succ, List.set_cons_zero]
          refine wpAnyH_take (i := 6) (v := undef) rfl (by kernel_rfl) (by kernel_rfl) (by kernel_rfl) (fun _ _ _ h => h) (Or.inr ⟨by rfl, rfl⟩) hS0 ?_
          change wpAnyH _ _ _ _ _ _ _ (Act.put _ (some 24) _) _; dsimp only [Act.put]; simp only [List.setIfInBounds_toArray, List.set_cons_succ, List.set_cons_zero]
          refine wpAnyH_take (i := 7) (v := undef) rfl (by kernel_rfl) (by kernel_rfl) (by kernel_rfl) (fun _ _ _ h => h) (Or.inr ⟨by rfl, rfl⟩) hS0 ?_
          change wpAnyH _ _ _ _ _ _ _ (Act.put _ (some 25) _) _; dsimp only [Act.put]; simp only [List.setIfInBounds_toArray, List.set_cons_succ, List.set_cons_zero]
          refine wpAnyH_take (i := 8) (v := undef) rfl (by kernel_rfl) (by kernel_rfl) (by kernel_rfl) (fun _ _ _ h => h) (Or.inr ⟨by rfl, rfl⟩) hS0 ?_
          change wpAnyH _ _ _ _ _ _ _ (Act.put _ (some 26) _) _; dsimp only [Act.put]; simp only [List.setIfInBounds_toArray, List.set_cons_succ, List.set_cons_zero]
          refine wpAnyH_take (i := 9) (v := undef) rfl (by kernel_rfl) (by kernel_rfl) (by kernel_rfl) (fun _ _ _ h => h) (Or.inr ⟨by rfl, rfl⟩) hS0 ?_
          change wpAnyH _ _ _ _ _ _ _ (Act.put _ (some 27) _) _; dsimp only [Act.put]; simp only [List.setIfInBounds_toArray, List.set_cons_succ, List.set_cons_zero]
          refine wpAnyH_take (i := 10) (v := undef) rfl (by kernel_rfl) (by kernel_rfl) (by kernel_rfl) (fun _ _ _ h => h) (Or.inr ⟨by rfl, rfl⟩) hS0 ?_
          change wpAnyH _ _ _ _ _ _ _ (Act.put _ (some 28) _) _; dsimp only [Act.put]; simp only [List.setIfInBounds_toArray, List.set_cons_succ, List.set_cons_zero]
          refine wpAnyH_take (i := 11) (v := undef) rfl (by kernel_rfl) (by kernel_rfl) (by kernel_rfl) (fun _ _ _ h => h) (Or.inr ⟨by rfl, rfl⟩) hS0 ?_
          change wpAnyH _ _ _ _ _ _ _ (Act.put _ (some 29) _) _; dsimp only [Act.put]; simp only [List.setIfInBounds_toArray, List.set_cons_succ, List.set_cons_zero]
          refine wpAnyH_take (i := 12) (v := undef) rfl (by kernel_rfl) (by kernel_rfl) (by kernel_rfl) (fun _ _ _ h => h) (Or.inr ⟨by rfl, rfl⟩) hS0 ?_
          change wpAnyH _ _ _ _ _ _ _ (Act.put _ (some 30) _) _; dsimp only [Act.put]; simp only [List.setIfInBounds_toArray, List.set_cons_succ, List.set_cons_zero]
          refine wpAnyH_take (i := 13) (v := .bool false) rfl (by kernel_rfl) (by kernel_rfl) (by kernel_rfl) (fun _ _ _ h => h) (Yields.yieldsIf (Or.inl ⟨by rfl, fun w9 => by (go_simp; first | done | with_reducible rfl | (intro h9; exfalso; omega))⟩)) hS0 ?_
          change wpAnyH _ _ _ _ _ _ _ (Act.put _ (some 31) _) _; dsimp only [Act.put]; simp only [List.setIfInBounds_toArray, List.set_cons_succ, List.set_cons_zero]
          refine wpAnyH_done (by kernel_rfl) ?_ _
          go_wp2
          go_meet
          exact ⟨false, rfl, by simp, by first | exact fun _ => HDR | exact HDR, hS0⟩
      case rest =>
        obtain ⟨c, rfl, HT1, HT2, hbc⟩ := hcut
        cases c
        rotate_left
        · obtain ⟨hkn, hlow2⟩ := HT1 rfl
          have hlow2 : ∀ y ∈ M.take (k + 1), y.ht < h.ht := by rw [HX.out]; exact hlow2
          clear HT1 HT2
          go_wp2
          go_roundw
          case rel => exact ⟨k + 1, by omega, by go_num, hlow2, hbe.trans (hbc.mono hbe.size)⟩
          case measure => (simp [intOf]) <;> omega
        · have hI : insH M h = M.take k ++ h :: M.drop k := ins_at (by rw [HX.out]; exact HLOW.out) (by rw [HX.out]; exact HT2 rfl)
          have HTL := Lib.hid (show ((M.take k).flatMap Hd.L).length = k * 34 by rw [hds_len, List.length_take, Nat.min_eq_left (by rw [HN.out]; exact hk)])
          have HDL := Lib.hid (show ((M.drop k).flatMap Hd.L).length = (n - k) * 34 by rw [hds_len, List.length_drop, HN.out])
          have HIL := Lib.hid (show (insH M h).length = k + 1 + (n - k) by rw [hI, List.length_append, List.length_cons, List.length_take, List.length_drop, HN.out, Nat.min_eq_left hk]; omega)
          have HIF := Lib.hid (show (insH M h).flatMap Hd.L = (M.take k).flatMap Hd.L ++ h.L ++ (M.drop k).flatMap Hd.L by rw [hI, List.flatMap_append, List.flatMap_cons, List.append_assoc])
          have hbw : Below w.heap.size w wc := hbelr.trans (hbc.mono hbelr.size)
          have hqc := cells_of hqr hbc (row_lt hqr)
          have hbd : Below wc.heap.size wc wc.drew := (Below.refl _ _).drew
          have hqd : wc.drew.heap[w.heap.size]? = some (.cells h.row 43 (0, 0)) := hqc
          have hrc := hr.below hbw
          have hownc := own_kept9 hown hbw
          have n0 : (0 : Int) ≤ (k : Int) := by omega
          have n1 : (k : Int) ≤ (cap : Int) := by omega
          have n3 : (k : Int) ≤ (n : Int) := by omega
          have n2 : ((k : Nat) : Int).toNat = k := by omega
          clear hI HT1 HT2 HLOW hcx
          go_upto_region 7 with fail
          cases a with
          | none =>
            obtain ⟨rfl, rfl⟩ := hnone rfl
            obtain rfl : k = 0 := by omega
            have HL0 : Hid (M = []) := Lib.hid (List.eq_nil_of_length_eq_zero HN.out)
            as_aux_lemma =>
              refine wp_region_any (by kernel_rfl) ?_
              change wpAny _ _ _ _ _ _ _ (World.drew _)
              refine wpAny_take (i := 0) (v := .slice none 0 0) rfl (by kernel_rfl) (by kernel_rfl) (by kernel_rfl) (fun _ _ _ h => h) (Or.inl ⟨by rfl, fun w9 => by (go_simp; try with_reducible rfl)⟩) ?_
              change wpAny _ _ _ _ _ _ (Act.put _ (some 34) _) _; dsimp only [Act.put]; simp only [List.setIfInBounds_toArray, List.set_cons_succ, List.set_cons_zero]
              refine wpAny_take (i := 1) (v := .int .i64 ((0 : Nat) : Int)) rfl (by kernel_rfl) (by kernel_rfl) (by kernel_rfl) (fun _ _ _ h => h) (Or.inl ⟨by rfl, fun w9 => by (go_simp; try with_reducible rfl)⟩) ?_
              change wpAny _ _ _ _ _ _ (Act.put _ (some 35) _) _; dsimp only [Act.put]; simp only [List.setIfInBounds_toArray, List.set_cons_succ, List.set_cons_zero]
              refine wpAny_take (i := 2) (v := .slice (none) (0) (0)) rfl (by kernel_rfl) (by kernel_rfl) (by kernel_rfl) (fun _ _ _ h => h) (Or.inl ⟨by rfl, fun w9 => by (go_simp; try with_reducible rfl)⟩) ?_
              change wpAny _ _ _ _ _ _ (Act.put _ (some 36) _) _; dsimp only [Act.put]; simp only [List.setIfInBounds_toArray, List.set_cons_succ, List.set_cons_zero]
              refine wpAny_take (i := 7) (v := .slice none 0 0) rfl (by kernel_rfl) (by kernel_rfl) (by kernel_rfl) (fun _ _ _ h => h) (Or.inl ⟨by rfl, fun w9 => by (go_simp; try with_reducible rfl)⟩) ?_
              change wpAny _ _ _ _ _ _ (Act.put _ (some 41) _) _; dsimp only [Act.put]; simp only [List.setIfInBounds_toArray, List.set_cons_succ, List.set_cons_zero]
              refine wpAny_take (i := 8) (v := .int .i64 ((0 : Nat) : Int)) rfl (by kernel_rfl) (by kernel_rfl) (by kernel_rfl) (fun _ _ _ h => h) (Or.inl ⟨by rfl, fun w9 => by (go_simp; try with_reducible rfl)⟩) ?_
              change wpAny _ _ _ _ _ _ (Act.put _ (some 42) _) _; dsimp only [Act.put]; simp only [List.setIfInBounds_toArray, List.set_cons_succ, List.set_cons_zero]
              refine wpAny_take (i := 9) (v := .slice (none) (0) (0)) rfl (by kernel_rfl) (by kernel_rfl) (by kernel_rfl) (fun _ _ _ h => h) (Or.inl ⟨by rfl, fun w9 => by (go_simp; try with_reducible rfl)⟩) ?_
              change wpAny _ _ _ _ _ _ (Act.put _ (some 43) _) _; dsimp only [Act.put]; simp only [List.setIfInBounds_toArray, List.set_cons_succ, List.set_cons_zero]
              refine wpAny_ready (rs := [3, 4]) (by kernel_rfl) (by simp) ?_
              refine (AllReady.cons rfl (fun K hK => ?_) (AllReady.cons rfl (fun K hK => ?_) AllReady.nil))
              · refine step_append_ownA rfl (.const (.slice none 0 0)) (.tmp 36) 36 rfl wc.heap.size 43 i0 (.agg zeroHd.row) 34 48 Try.underlying36 hi0 hz0 hzs hzb Hd.row_size0 (by decide) (.slice none 0 0) (0) ([]) (by first | rfl | simp [Act.eval, Act.put]) (World.ownsRow_nil _ _ _ _) (none) (0) (0) ([]) (by first | rfl | simp [Act.eval, Act.put]) (fun _ => ⟨rfl, rfl⟩) rfl (fun ad e => (by  cases e)) (by first | exact hds_one _ | exact h.L_one | exact (fun u hu => (by cases hu))) (by unfold maxLen; omega) (by omega) hbd.size ?_
                intro v1 w1 hown1 hgr1
                simp only [Nat.zero_add, List.nil_append] at hown1
                have hb1 := hbd.trans (grown_lowM hgr1 (fun k h => by cases h) hbd.size)
                have hq1 := cells_of hqc hb1 (row_lt hqc)
                refine hK _ _ ?_
                clear hK K
                change wpAny _ _ _ _ _ _ (Act.put _ (some 37) _) _; dsimp only [Act.put]; simp only [List.setIfInBounds_toArray, List.set_cons_succ, List.set_cons_zero]
                refine wpAny_ready (rs := [4]) (by kernel_rfl) (by simp) ?_
                refine (AllReady.cons rfl (fun K hK => ?_) AllReady.nil)
                refine step_loadHd (.tmp 3) rfl (by rfl) w.heap.size 0 (by first | rfl | simp [Act.eval, Act.put]) h (hd_range hq1) ?_
                refine hK _ _ ?_
                clear hK K
                change wpAny _ _ _ _ _ _ (Act.put _ (some 38) _) _; dsimp only [Act.put]; simp only [List.setIfInBounds_toArray, List.set_cons_succ, List.set_cons_zero]
                refine wpAny_ready (rs := [5]) (by kernel_rfl) (by simp) ?_
                refine (AllReady.cons rfl (fun K hK => ?_) AllReady.nil)
                refine step_oneH rfl (.tmp 38) rfl h (by first | rfl | simp [Act.eval, Act.put]) ?_
                refine hK _ _ ?_
                clear hK K
                change wpAny _ _ _ _ _ _ (Act.put _ (some 39) _) _; dsimp only [Act.put]; simp only [List.setIfInBounds_toArray, List.set_cons_succ, List.set_cons_zero]
                refine wpAny_ready (rs := [6]) (by kernel_rfl) (by simp) ?_
                refine (AllReady.cons rfl (fun K hK => ?_) AllReady.nil)
                refine step_append_ownA rfl (.tmp 37) (.tmp 39) 36 rfl wc.heap.size 43 i0 (.agg zeroHd.row) 34 48 Try.underlying36 hi0 hz0 hzs hzb Hd.row_size0 (by decide) (v1) (0) ([]) (by first | rfl | simp [Act.eval, Act.put]) (hown1.alloc _) (some ⟨w1.heap.size, 0, none⟩) (1) (1) (h.L) (by first | rfl | simp [Act.eval, Act.put]) (fun h => by cases h) (by rw [Hd.L_len]) (some_funH (hd_new (heap_push w1 h.row 43))) (by first | exact hds_one _ | exact h.L_one | exact (fun u hu => (by cases hu))) (by unfold maxLen; omega) (by omega) (hb1.alloc hb1.size _).size ?_
                intro v2 w2 hown2 hgr2
                have hb2 := (hb1.alloc hb1.size _).trans (below_grown (hown1.alloc _) hgr2 (hb1.alloc hb1.size _).size)
                refine hK _ _ ?_
                clear hK K
                change wpAny _ _ _ _ _ _ (Act.put _ (some 40) _) _; dsimp only [Act.put]; simp only [List.setIfInBounds_toArray, List.set_cons_succ, List.set_cons_zero]
                refine wpAny_ready (rs := [10]) (by kernel_rfl) (by simp) ?_
                refine (AllReady.cons rfl (fun K hK => ?_) AllReady.nil)
                refine step_append_ownA rfl (.tmp 40) (.tmp 43) 36 rfl wc.heap.size 43 i0 (.agg zeroHd.row) 34 48 Try.underlying36 hi0 hz0 hzs hzb Hd.row_size0 (by decide) (v2) (0 + 1) ([] ++ h.L) (by first | rfl | simp [Act.eval, Act.put]) hown2 (none) (0) (0) ([]) (by first | rfl | simp [Act.eval, Act.put]) (fun _ => ⟨rfl, rfl⟩) rfl (fun ad e => (by  cases e)) (by first | exact hds_one _ | exact h.L_one | exact (fun u hu => (by cases hu))) (by unfold maxLen; omega) (by omega) hb2.size ?_
                intro v3 w3 hown3 hgr3
                have hb3 := hb2.trans (below_grown hown2 hgr3 hb2.size)
                refine hK _ _ ?_
                clear hK K
                change wpAny _ _ _ _ _ _ (Act.put _ (some 44) _) _; dsimp only [Act.put]; simp only [List.setIfInBounds_toArray, List.set_cons_succ, List.set_cons_zero]
                refine wpAny_take (i := 11) (v := v3) rfl (by kernel_rfl) (by kernel_rfl) (by kernel_rfl) (fun _ _ _ h => h) (Or.inl ⟨by rfl, fun w9 => by (go_simp; try with_reducible rfl)⟩) ?_
                change wpAny _ _ _ _ _ _ (Act.put _ (some 4) _) _; dsimp only [Act.put]; simp only [List.setIfInBounds_toArray, List.set_cons_succ, List.set_cons_zero]
                refine wpAny_take (i := 12) (v := .bool true) rfl (by kernel_rfl) (by kernel_rfl) (by kernel_rfl) (fun _ _ _ h => h) (Or.inl ⟨by rfl, fun w9 => by (go_simp; try with_reducible rfl)⟩) ?_
                change wpAny _ _ _ _ _ _ (Act.put _ (some 5) _) _; dsimp only [Act.put]; simp only [List.setIfInBounds_toArray, List.set_cons_succ, List.set_cons_zero]
                refine wpAny_done (by kernel_rfl) ?_ _
                go_wp2
                go_returns
                refine ⟨_, rfl, ?_, hbw.trans (hb3.mono hbw.size)⟩
                have h9 := own_lowerM hown3 (Nat.le_trans hB hbw.size)
                rw [HIL.out, HIF.out]
                simpa [HL0.out] using h9
              · refine step_loadHd (.tmp 3) rfl (by rfl) w.heap.size 0 (by first | rfl | simp [Act.eval, Act.put]) h (hd_range hqd) ?_
                refine hK _ _ ?_
                clear hK K
                change wpAny _ _ _ _ _ _ (Act.put _ (some 38) _) _; dsimp only [Act.put]; simp only [List.setIfInBounds_toArray, List.set_cons_succ, List.set_cons_zero]
                refine wpAny_ready (rs := [3, 5]) (by kernel_rfl) (by simp) ?_
                refine (AllReady.cons rfl (fun K hK => ?_) (AllReady.cons rfl (fun K hK => ?_) AllReady.nil))
                · refine step_append_ownA rfl (.const (.slice none 0 0)) (.tmp 36) 36 rfl wc.heap.size 43 i0 (.agg zeroHd.row) 34 48 Try.underlying36 hi0 hz0 hzs hzb Hd.row_size0 (by decide) (.slice none 0 0) (0) ([]) (by first | rfl | simp [Act.eval, Act.put]) (World.ownsRow_nil _ _ _ _) (none) (0) (0) ([]) (by first | rfl | simp [Act.eval, Act.put]) (fun _ => ⟨rfl, rfl⟩) rfl (fun ad e => (by  cases e)) (by first | exact hds_one _ | exact h.L_one | exact (fun u hu => (by cases hu))) (by unfold maxLen; omega) (by omega) hbd.size ?_
                  intro v1 w1 hown1 hgr1
                  simp only [Nat.zero_add, List.nil_append] at hown1
                  have hb1 := hbd.trans (grown_lowM hgr1 (fun k h => by cases h) hbd.size)
                  have hq1 := cells_of hqc hb1 (row_lt hqc)
                  refine hK _ _ ?_
                  clear hK K
                  change wpAny _ _ _ _ _ _ (Act.put _ (some 37) _) _; dsimp only [Act.put]; simp only [List.setIfInBounds_toArray, List.set_cons_succ, List.set_cons_zero]
                  refine wpAny_ready (rs := [5]) (by kernel_rfl) (by simp) ?_
                  refine (AllReady.cons rfl (fun K hK => ?_) AllReady.nil)
                  refine step_oneH rfl (.tmp 38) rfl h (by first | rfl | simp [Act.eval, Act.put]) ?_
                  refine hK _ _ ?_
                  clear hK K
                  change wpAny _ _ _ _ _ _ (Act.put _ (some 39) _) _; dsimp only [Act.put]; simp only [List.setIfInBounds_toArray, List.set_cons_succ, List.set_cons_zero]
                  refine wpAny_ready (rs := [6]) (by kernel_rfl) (by simp) ?_
                  refine (AllReady.cons rfl (fun K hK => ?_) AllReady.nil)
                  refine step_append_ownA rfl (.tmp 37) (.tmp 39) 36 rfl wc.heap.size 43 i0 (.agg zeroHd.row) 34 48 Try.underlying36 hi0 hz0 hzs hzb Hd.row_size0 (by decide) (v1) (0) ([]) (by first | rfl | simp [Act.eval, Act.put]) (hown1.alloc _) (some ⟨w1.heap.size, 0, none⟩) (1) (1) (h.L) (by first | rfl | simp [Act.eval, Act.put]) (fun h => by cases h) (by rw [Hd.L_len]) (some_funH (hd_new (heap_push w1 h.row 43))) (by first | exact hds_one _ | exact h.L_one | exact (fun u hu => (by cases hu))) (by unfold maxLen; omega) (by omega) (hb1.alloc hb1.size _).size ?_
                  intro v2 w2 hown2 hgr2
                  have hb2 := (hb1.alloc hb1.size _).trans (below_grown (hown1.alloc _) hgr2 (hb1.alloc hb1.size _).size)
                  refine hK _ _ ?_
                  clear hK K
                  change wpAny _ _ _ _ _ _ (Act.put _ (some 40) _) _; dsimp only [Act.put]; simp only [List.setIfInBounds_toArray, List.set_cons_succ, List.set_cons_zero]
                  refine wpAny_ready (rs := [10]) (by kernel_rfl) (by simp) ?_
                  refine (AllReady.cons rfl (fun K hK => ?_) AllReady.nil)
                  refine step_append_ownA rfl (.tmp 40) (.tmp 43) 36 rfl wc.heap.size 43 i0 (.agg zeroHd.row) 34 48 Try.underlying36 hi0 hz0 hzs hzb Hd.row_size0 (by decide) (v2) (0 + 1) ([] ++ h.L) (by first | rfl | simp [Act.eval, Act.put]) hown2 (none) (0) (0) ([]) (by first | rfl | simp [Act.eval, Act.put]) (fun _ => ⟨rfl, rfl⟩) rfl (fun ad e => (by  cases e)) (by first | exact hds_one _ | exact h.L_one | exact (fun u hu => (by cases hu))) (by unfold maxLen; omega) (by omega) hb2.size ?_
                  intro v3 w3 hown3 hgr3
                  have hb3 := hb2.trans (below_grown hown2 hgr3 hb2.size)
                  refine hK _ _ ?_
                  clear hK K
                  change wpAny _ _ _ _ _ _ (Act.put _ (some 44) _) _; dsimp only [Act.put]; simp only [List.setIfInBounds_toArray, List.set_cons_succ, List.set_cons_zero]
                  refine wpAny_take (i := 11) (v := v3) rfl (by kernel_rfl) (by kernel_rfl) (by kernel_rfl) (fun _ _ _ h => h) (Or.inl ⟨by rfl, fun w9 => by (go_simp; try with_reducible rfl)⟩) ?_
                  change wpAny _ _ _ _ _ _ (Act.put _ (some 4) _) _; dsimp only [Act.put]; simp only [List.setIfInBounds_toArray, List.set_cons_succ, List.set_cons_zero]
                  refine wpAny_take (i := 12) (v := .bool true) rfl (by kernel_rfl) (by kernel_rfl) (by kernel_rfl) (fun _ _ _ h => h) (Or.inl ⟨by rfl, fun w9 => by (go_simp; try with_reducible rfl)⟩) ?_
                  change wpAny _ _ _ _ _ _ (Act.put _ (some 5) _) _; dsimp only [Act.put]; simp only [List.setIfInBounds_toArray, List.set_cons_succ, List.set_cons_zero]
                  refine wpAny_done (by kernel_rfl) ?_ _
                  go_wp2
                  go_returns
                  refine ⟨_, rfl, ?_, hbw.trans (hb3.mono hbw.size)⟩
                  have h9 := own_lowerM hown3 (Nat.le_trans hB hbw.size)
                  rw [HIL.out, HIF.out]
                  simpa [HL0.out] using h9
                · refine step_oneH rfl (.tmp 38) rfl h (by first | rfl | simp [Act.eval, Act.put]) ?_
                  refine hK _ _ ?_
                  clear hK K
                  change wpAny _ _ _ _ _ _ (Act.put _ (some 39) _) _; dsimp only [Act.put]; simp only [List.setIfInBounds_toArray, List.set_cons_succ, List.set_cons_zero]
                  refine wpAny_ready (rs := [3]) (by kernel_rfl) (by simp) ?_
                  refine (AllReady.cons rfl (fun K hK => ?_) AllReady.nil)
                  have hbd2 : Below wc.heap.size wc (wc.drew.alloc (.cells h.row 43)) := hbd.alloc hbd.size _
                  refine step_append_ownA rfl (.const (.slice none 0 0)) (.tmp 36) 36 rfl wc.heap.size 43 i0 (.agg zeroHd.row) 34 48 Try.underlying36 hi0 hz0 hzs hzb Hd.row_size0 (by decide) (.slice none 0 0) (0) ([]) (by first | rfl | simp [Act.eval, Act.put]) (World.ownsRow_nil _ _ _ _) (none) (0) (0) ([]) (by first | rfl | simp [Act.eval, Act.put]) (fun _ => ⟨rfl, rfl⟩) rfl (fun ad e => (by  cases e)) (by first | exact hds_one _ | exact h.L_one | exact (fun u hu => (by cases hu))) (by unfold maxLen; omega) (by omega) hbd2.size ?_
                  intro v1 w1 hown1 hgr1
                  simp only [Nat.zero_add, List.nil_append] at hown1
                  have hN1 : w1.heap[wc.heap.size]? = some (.cells h.row 43 (0, 0)) := grown_at (row := none) ⟨hgr1.os, hgr1.tape, hgr1.output, hgr1.size, hgr1.block⟩ (heap_push wc.drew h.row 43) (by simp)
                  have hb1 := hbd2.trans (grown_lowM hgr1 (fun k h => by cases h) hbd2.size)
                  refine hK _ _ ?_
                  clear hK K
                  change wpAny _ _ _ _ _ _ (Act.put _ (some 37) _) _; dsimp only [Act.put]; simp only [List.setIfInBounds_toArray, List.set_cons_succ, List.set_cons_zero]
                  refine wpAny_ready (rs := [6]) (by kernel_rfl) (by simp) ?_
                  refine (AllReady.cons rfl (fun K hK => ?_) AllReady.nil)
                  refine step_append_ownA rfl (.tmp 37) (.tmp 39) 36 rfl wc.heap.size 43 i0 (.agg zeroHd.row) 34 48 Try.underlying36 hi0 hz0 hzs hzb Hd.row_size0 (by decide) (v1) (0) ([]) (by first | rfl | simp [Act.eval, Act.put]) hown1 (some ⟨wc.heap.size, 0, none⟩) (1) (1) (h.L) (by first | rfl | simp [Act.eval, Act.put]) (fun h => by cases h) (by rw [Hd.L_len]) (some_funH (hd_new hN1)) (by first | exact hds_one _ | exact h.L_one | exact (fun u hu => (by cases hu))) (by unfold maxLen; omega) (by omega) hb1.size ?_
                  intro v2 w2 hown2 hgr2
                  have hb2 := hb1.trans (below_grown hown1 hgr2 hb1.size)
                  refine hK _ _ ?_
                  clear hK K
                  change wpAny _ _ _ _ _ _ (Act.put _ (some 40) _) _; dsimp only [Act.put]; simp only [List.setIfInBounds_toArray, List.set_cons_succ, List.set_cons_zero]
                  refine wpAny_ready (rs := [10]) (by kernel_rfl) (by simp) ?_
                  refine (AllReady.cons rfl (fun K hK => ?_) AllReady.nil)
                  refine step_append_ownA rfl (.tmp 40) (.tmp 43) 36 rfl wc.heap.size 43 i0 (.agg zeroHd.row) 34 48 Try.underlying36 hi0 hz0 hzs hzb Hd.row_size0 (by decide) (v2) (0 + 1) ([] ++ h.L) (by first | rfl | simp [Act.eval, Act.put]) hown2 (none) (0) (0) ([]) (by first | rfl | simp [Act.eval, Act.put]) (fun _ => ⟨rfl, rfl⟩) rfl (fun ad e => (by  cases e)) (by first | exact hds_one _ | exact h.L_one | exact (fun u hu => (by cases hu))) (by unfold maxLen; omega) (by omega) hb2.size ?_
                  intro v3 w3 hown3 hgr3
                  have hb3 := hb2.trans (below_grown hown2 hgr3 hb2.size)
                  refine hK _ _ ?_
                  clear hK K
                  change wpAny _ _ _ _ _ _ (Act.put _ (some 44) _) _; dsimp only [Act.put]; simp only [List.setIfInBounds_toArray, List.set_cons_succ, List.set_cons_zero]
                  refine wpAny_take (i := 11) (v := v3) rfl (by kernel_rfl) (by kernel_rfl) (by kernel_rfl) (fun _ _ _ h => h) (Or.inl ⟨by rfl, fun w9 => by (go_simp; try with_reducible rfl)⟩) ?_
                  change wpAny _ _ _ _ _ _ (Act.put _ (some 4) _) _; dsimp only [Act.put]; simp only [List.setIfInBounds_toArray, List.set_cons_succ, List.set_cons_zero]
                  refine wpAny_take (i := 12) (v := .bool true) rfl (by kernel_rfl) (by kernel_rfl) (by kernel_rfl) (fun _ _ _ h => h) (Or.inl ⟨by rfl, fun w9 => by (go_simp; try with_reducible rfl)⟩) ?_
                  change wpAny _ _ _ _ _ _ (Act.put _ (some 5) _) _; dsimp only [Act.put]; simp only [List.setIfInBounds_toArray, List.set_cons_succ, List.set_cons_zero]
                  refine wpAny_done (by kernel_rfl) ?_ _
                  go_wp2
                  go_returns
                  refine ⟨_, rfl, ?_, hbw.trans (hb3.mono hbw.size)⟩
                  have h9 := own_lowerM hown3 (Nat.le_trans hB hbw.size)
                  rw [HIL.out, HIF.out]
                  simpa [HL0.out] using h9
          | some ad =>
            obtain ⟨g, rfl⟩ := own_formB hownc
            by_cases hc : cap = k
            · obtain rfl : n = k := by omega
              subst hc
              have HD0 : Hid (M.drop cap = []) := Lib.hid (List.drop_of_length_le (by rw [HN.out]; omega))
              as_aux_lemma =>
                refine wp_region_any (by kernel_rfl) ?_
                change wpAny _ _ _ _ _ _ _ (World.drew _)
                refine wpAny_take (i := 0) (v := .slice (some ⟨g, 0, none⟩) cap cap) rfl (by kernel_rfl) (by kernel_rfl) (by kernel_rfl) (fun _ _ _ h => h) (Or.inl ⟨by rfl, fun w9 => by (go_simp; try with_reducible rfl)⟩) ?_
                change wpAny _ _ _ _ _ _ (Act.put _ (some 34) _) _; dsimp only [Act.put]; simp only [List.setIfInBounds_toArray, List.set_cons_succ, List.set_cons_zero]
                refine wpAny_take (i := 1) (v := .int .i64 (cap : Int)) rfl (by kernel_rfl) (by kernel_rfl) (by kernel_rfl) (fun _ _ _ h => h) (Or.inl ⟨by rfl, fun w9 => by (go_simp; try with_reducible rfl)⟩) ?_
                change wpAny _ _ _ _ _ _ (Act.put _ (some 35) _) _; dsimp only [Act.put]; simp only [List.setIfInBounds_toArray, List.set_cons_succ, List.set_cons_zero]
                refine wpAny_take (i := 2) (v := .slice (some ⟨g, 0, none⟩) (cap) (cap)) rfl (by kernel_rfl) (by kernel_rfl) (by kernel_rfl) (fun _ _ _ h => h) (Or.inl ⟨by rfl, fun w9 => by (go_simp; try with_reducible rfl)⟩) ?_
                change wpAny _ _ _ _ _ _ (Act.put _ (some 36) _) _; dsimp only [Act.put]; simp only [List.setIfInBounds_toArray, List.set_cons_succ, List.set_cons_zero]
                refine wpAny_take (i := 7) (v := .slice (some ⟨g, 0, none⟩) cap cap) rfl (by kernel_rfl) (by kernel_rfl) (by kernel_rfl) (fun _ _ _ h => h) (Or.inl ⟨by rfl, fun w9 => by (go_simp; try with_reducible rfl)⟩) ?_
                change wpAny _ _ _ _ _ _ (Act.put _ (some 41) _) _; dsimp only [Act.put]; simp only [List.setIfInBounds_toArray, List.set_cons_succ, List.set_cons_zero]
                refine wpAny_take (i := 8) (v := .int .i64 (cap : Int)) rfl (by kernel_rfl) (by kernel_rfl) (by kernel_rfl) (fun _ _ _ h => h) (Or.inl ⟨by rfl, fun w9 => by (go_simp; try with_reducible rfl)⟩) ?_
                change wpAny _ _ _ _ _ _ (Act.put _ (some 42) _) _; dsimp only [Act.put]; simp only [List.setIfInBounds_toArray, List.set_cons_succ, List.set_cons_zero]
                refine wpAny_take (i := 9) (v := .slice (some ⟨g, 0, none⟩) (0) (0)) rfl (by kernel_rfl) (by kernel_rfl) (by kernel_rfl) (fun _ _ _ h => h) (Or.inl ⟨by rfl, fun w9 => by (go_simp; try with_reducible rfl)⟩) ?_
                change wpAny _ _ _ _ _ _ (Act.put _ (some 43) _) _; dsimp only [Act.put]; simp only [List.setIfInBounds_toArray, List.set_cons_succ, List.set_cons_zero]
                refine wpAny_ready (rs := [3, 4]) (by kernel_rfl) (by simp) ?_
                refine (AllReady.cons rfl (fun K hK => ?_) (AllReady.cons rfl (fun K hK => ?_) AllReady.nil))
                · refine step_append_ownA rfl (.const (.slice none 0 0)) (.tmp 36) 36 rfl wc.heap.size 43 i0 (.agg zeroHd.row) 34 48 Try.underlying36 hi0 hz0 hzs hzb Hd.row_size0 (by decide) (.slice none 0 0) (0) ([]) (by first | rfl | simp [Act.eval, Act.put]) (World.ownsRow_nil _ _ _ _) (some ⟨g, 0, none⟩) (cap) (cap) ((M.take cap).flatMap Hd.L) (by first | rfl | simp [Act.eval, Act.put]) (fun h => by cases h) HTL.out (row_news (hds_take8 (hrc.below hbd) cap)) (by first | exact hds_one _ | exact h.L_one | exact (fun u hu => (by cases hu))) (by unfold maxLen; omega) (by omega) hbd.size ?_
                  intro v1 w1 hown1 hgr1
                  simp only [Nat.zero_add, List.nil_append] at hown1
                  have hb1 := hbd.trans (grown_lowM hgr1 (fun k h => by cases h) hbd.size)
                  have hq1 := cells_of hqc hb1 (row_lt hqc)
                  refine hK _ _ ?_
                  clear hK K
                  change wpAny _ _ _ _ _ _ (Act.put _ (some 37) _) _; dsimp only [Act.put]; simp only [List.setIfInBounds_toArray, List.set_cons_succ, List.set_cons_zero]
                  refine wpAny_ready (rs := [4]) (by kernel_rfl) (by simp) ?_
                  refine (AllReady.cons rfl (fun K hK => ?_) AllReady.nil)
                  refine step_loadHd (.tmp 3) rfl (by rfl) w.heap.size 0 (by first | rfl | simp [Act.eval, Act.put]) h (hd_range hq1) ?_
                  refine hK _ _ ?_
                  clear hK K
                  change wpAny _ _ _ _ _ _ (Act.put _ (some 38) _) _; dsimp only [Act.put]; simp only [List.setIfInBounds_toArray, List.set_cons_succ, List.set_cons_zero]
                  refine wpAny_ready (rs := [5]) (by kernel_rfl) (by simp) ?_
                  refine (AllReady.cons rfl (fun K hK => ?_) AllReady.nil)
                  refine step_oneH rfl (.tmp 38) rfl h (by first | rfl | simp [Act.eval, Act.put]) ?_
                  refine hK _ _ ?_
                  clear hK K
                  change wpAny _ _ _ _ _ _ (Act.put _ (some 39) _) _; dsimp only [Act.put]; simp only [List.setIfInBounds_toArray, List.set_cons_succ, List.set_cons_zero]
                  refine wpAny_ready (rs := [6]) (by kernel_rfl) (by simp) ?_
                  refine (AllReady.cons rfl (fun K hK => ?_) AllReady.nil)
                  refine step_append_ownA rfl (.tmp 37) (.tmp 39) 36 rfl wc.heap.size 43 i0 (.agg zeroHd.row) 34 48 Try.underlying36 hi0 hz0 hzs hzb Hd.row_size0 (by decide) (v1) (cap) ((M.take cap).flatMap Hd.L) (by first | rfl | simp [Act.eval, Act.put]) (hown1.alloc _) (some ⟨w1.heap.size, 0, none⟩) (1) (1) (h.L) (by first | rfl | simp [Act.eval, Act.put]) (fun h => by cases h) (by rw [Hd.L_len]) (some_funH (hd_new (heap_push w1 h.row 43))) (by first | exact hds_one _ | exact h.L_one | exact (fun u hu => (by cases hu))) (by unfold maxLen; omega) (by omega) (hb1.alloc hb1.size _).size ?_
                  intro v2 w2 hown2 hgr2
                  have hb2 := (hb1.alloc hb1.size _).trans (below_grown (hown1.alloc _) hgr2 (hb1.alloc hb1.size _).size)
                  refine hK _ _ ?_
                  clear hK K
                  change wpAny _ _ _ _ _ _ (Act.put _ (some 40) _) _; dsimp only [Act.put]; simp only [List.setIfInBounds_toArray, List.set_cons_succ, List.set_cons_zero]
                  refine wpAny_ready (rs := [10]) (by kernel_rfl) (by simp) ?_
                  refine (AllReady.cons rfl (fun K hK => ?_) AllReady.nil)
                  refine step_append_ownA rfl (.tmp 40) (.tmp 43) 36 rfl wc.heap.size 43 i0 (.agg zeroHd.row) 34 48 Try.underlying36 hi0 hz0 hzs hzb Hd.row_size0 (by decide) (v2) (cap + 1) ((M.take cap).flatMap Hd.L ++ h.L) (by first | rfl | simp [Act.eval, Act.put]) hown2 (some ⟨g, 0, none⟩) (0) (0) ([]) (by first | rfl | simp [Act.eval, Act.put]) (fun h => by cases h) rfl (fun ad e j u hu => (by  cases hu)) (by first | exact hds_one _ | exact h.L_one | exact (fun u hu => (by cases hu))) (by unfold maxLen; omega) (by omega) hb2.size ?_
                  intro v3 w3 hown3 hgr3
                  have hb3 := hb2.trans (below_grown hown2 hgr3 hb2.size)
                  refine hK _ _ ?_
                  clear hK K
                  change wpAny _ _ _ _ _ _ (Act.put _ (some 44) _) _; dsimp only [Act.put]; simp only [List.setIfInBounds_toArray, List.set_cons_succ, List.set_cons_zero]
                  refine wpAny_take (i := 11) (v := v3) rfl (by kernel_rfl) (by kernel_rfl) (by kernel_rfl) (fun _ _ _ h => h) (Or.inl ⟨by rfl, fun w9 => by (go_simp; try with_reducible rfl)⟩) ?_
                  change wpAny _ _ _ _ _ _ (Act.put _ (some 4) _) _; dsimp only [Act.put]; simp only [List.setIfInBounds_toArray, List.set_cons_succ, List.set_cons_zero]
                  refine wpAny_take (i := 12) (v := .bool true) rfl (by kernel_rfl) (by kernel_rfl) (by kernel_rfl) (fun _ _ _ h => h) (Or.inl ⟨by rfl, fun w9 => by (go_simp; try with_reducible rfl)⟩) ?_
                  change wpAny _ _ _ _ _ _ (Act.put _ (some 5) _) _; dsimp only [Act.put]; simp only [List.setIfInBounds_toArray, List.set_cons_succ, List.set_cons_zero]
                  refine wpAny_done (by kernel_rfl) ?_ _
                  go_wp2
                  go_returns
                  refine ⟨_, rfl, ?_, hbw.trans (hb3.mono hbw.size)⟩
                  have h9 := own_lowerM hown3 (Nat.le_trans hB hbw.size)
                  rw [HIL.out, HIF.out]
                  simpa [HD0.out] using h9
                · refine step_loadHd (.tmp 3) rfl (by rfl) w.heap.size 0 (by first | rfl | simp [Act.eval, Act.put]) h (hd_range hqd) ?_
                  refine hK _ _ ?_
                  clear hK K
                  change wpAny _ _ _ _ _ _ (Act.put _ (some 38) _) _; dsimp only [Act.put]; simp only [List.setIfInBounds_toArray, List.set_cons_succ, List.set_cons_zero]
                  refine wpAny_ready (rs := [3, 5]) (by kernel_rfl) (by simp) ?_
                  refine (AllReady.cons rfl (fun K hK => ?_) (AllReady.cons rfl (fun K hK => ?_) AllReady.nil))
                  · refine step_append_ownA rfl (.const (.slice none 0 0)) (.tmp 36) 36 rfl wc.heap.size 43 i0 (.agg zeroHd.row) 34 48 Try.underlying36 hi0 hz0 hzs hzb Hd.row_size0 (by decide) (.slice none 0 0) (0) ([]) (by first | rfl | simp [Act.eval, Act.put]) (World.ownsRow_nil _ _ _ _) (some ⟨g, 0, none⟩) (cap) (cap) ((M.take cap).flatMap Hd.L) (by first | rfl | simp [Act.eval, Act.put]) (fun h => by cases h) HTL.out (row_news (hds_take8 (hrc.below hbd) cap)) (by first | exact hds_one _ | exact h.L_one | exact (fun u hu => (by cases hu))) (by unfold maxLen; omega) (by omega) hbd.size ?_
                    intro v1 w1 hown1 hgr1
                    simp only [Nat.zero_add, List.nil_append] at hown1
                    have hb1 := hbd.trans (grown_lowM hgr1 (fun k h => by cases h) hbd.size)
                    have hq1 := cells_of hqc hb1 (row_lt hqc)
                    refine hK _ _ ?_
                    clear hK K
                    change wpAny _ _ _ _ _ _ (Act.put _ (some 37) _) _; dsimp only [Act.put]; simp only [List.setIfInBounds_toArray, List.set_cons_succ, List.set_cons_zero]
                    refine wpAny_ready (rs := [5]) (by kernel_rfl) (by simp) ?_
                    refine (AllReady.cons rfl (fun K hK => ?_) AllReady.nil)
                    refine step_oneH rfl (.tmp 38) rfl h (by first | rfl | simp [Act.eval, Act.put]) ?_
                    refine hK _ _ ?_
                    clear hK K
                    change wpAny _ _ _ _ _ _ (Act.put _ (some 39) _) _; dsimp only [Act.put]; simp only [List.setIfInBounds_toArray, List.set_cons_succ, List.set_cons_zero]
                    refine wpAny_ready (rs := [6]) (by kernel_rfl) (by simp) ?_
                    refine (AllReady.cons rfl (fun K hK => ?_) AllReady.nil)
                    refine step_append_ownA rfl (.tmp 37) (.tmp 39) 36 rfl wc.heap.size 43 i0 (.agg zeroHd.row) 34 48 Try.underlying36 hi0 hz0 hzs hzb Hd.row_size0 (by decide) (v1) (cap) ((M.take cap).flatMap Hd.L) (by first | rfl | simp [Act.eval, Act.put]) (hown1.alloc _) (some ⟨w1.heap.size, 0, none⟩) (1) (1) (h.L) (by first | rfl | simp [Act.eval, Act.put]) (fun h => by cases h) (by rw [Hd.L_len]) (some_funH (hd_new (heap_push w1 h.row 43))) (by first | exact hds_one _ | exact h.L_one | exact (fun u hu => (by cases hu))) (by unfold maxLen; omega) (by omega) (hb1.alloc hb1.size _).size ?_
                    intro v2 w2 hown2 hgr2
                    have hb2 := (hb1.alloc hb1.size _).trans (below_grown (hown1.alloc _) hgr2 (hb1.alloc hb1.size _).size)
                    refine hK _ _ ?_
                    clear hK K
                    change wpAny _ _ _ _ _ _ (Act.put _ (some 40) _) _; dsimp only [Act.put]; simp only [List.setIfInBounds_toArray, List.set_cons_succ, List.set_cons_zero]
                    refine wpAny_ready (rs := [10]) (by kernel_rfl) (by simp) ?_
                    refine (AllReady.cons rfl (fun K hK => ?_) AllReady.nil)
                    refine step_append_ownA rfl (.tmp 40) (.tmp 43) 36 rfl wc.heap.size 43 i0 (.agg zeroHd.row) 34 48 Try.underlying36 hi0 hz0 hzs hzb Hd.row_size0 (by decide) (v2) (cap + 1) ((M.take cap).flatMap Hd.L ++ h.L) (by first | rfl | simp [Act.eval, Act.put]) hown2 (some ⟨g, 0, none⟩) (0) (0) ([]) (by first | rfl | simp [Act.eval, Act.put]) (fun h => by cases h) rfl (fun ad e j u hu => (by  cases hu)) (by first | exact hds_one _ | exact h.L_one | exact (fun u hu => (by cases hu))) (by unfold maxLen; omega) (by omega) hb2.size ?_
                    intro v3 w3 hown3 hgr3
                    have hb3 := hb2.trans (below_grown hown2 hgr3 hb2.size)
                    refine hK _ _ ?_
                    clear hK K
                    change wpAny _ _ _ _ _ _ (Act.put _ (some 44) _) _; dsimp only [Act.put]; simp only [List.setIfInBounds_toArray, List.set_cons_succ, List.set_cons_zero]
                    refine wpAny_take (i := 11) (v := v3) rfl (by kernel_rfl) (by kernel_rfl) (by kernel_rfl) (fun _ _ _ h => h) (Or.inl ⟨by rfl, fun w9 => by (go_simp; try with_reducible rfl)⟩) ?_
                    change wpAny _ _ _ _ _ _ (Act.put _ (some 4) _) _; dsimp only [Act.put]; simp only [List.setIfInBounds_toArray, List.set_cons_succ, List.set_cons_zero]
                    refine wpAny_take (i := 12) (v := .bool true) rfl (by kernel_rfl) (by kernel_rfl) (by kernel_rfl) (fun _ _ _ h => h) (Or.inl ⟨by rfl, fun w9 => by (go_simp; try with_reducible rfl)⟩) ?_
                    change wpAny _ _ _ _ _ _ (Act.put _ (some 5) _) _; dsimp only [Act.put]; simp only [List.setIfInBounds_toArray, List.set_cons_succ, List.set_cons_zero]
                    refine wpAny_done (by kernel_rfl) ?_ _
                    go_wp2
                    go_returns
                    refine ⟨_, rfl, ?_, hbw.trans (hb3.mono hbw.size)⟩
                    have h9 := own_lowerM hown3 (Nat.le_trans hB hbw.size)
                    rw [HIL.out, HIF.out]
                    simpa [HD0.out] using h9
                  · refine step_oneH rfl (.tmp 38) rfl h (by first | rfl | simp [Act.eval, Act.put]) ?_
                    refine hK _ _ ?_
                    clear hK K
                    change wpAny _ _ _ _ _ _ (Act.put _ (some 39) _) _; dsimp only [Act.put]; simp only [List.setIfInBounds_toArray, List.set_cons_succ, List.set_cons_zero]
                    refine wpAny_ready (rs := [3]) (by kernel_rfl) (by simp) ?_
                    refine (AllReady.cons rfl (fun K hK => ?_) AllReady.nil)
                    have hbd2 : Below wc.heap.size wc (wc.drew.alloc (.cells h.row 43)) := hbd.alloc hbd.size _
                    refine step_append_ownA rfl (.const (.slice none 0 0)) (.tmp 36) 36 rfl wc.heap.size 43 i0 (.agg zeroHd.row) 34 48 Try.underlying36 hi0 hz0 hzs hzb Hd.row_size0 (by decide) (.slice none 0 0) (0) ([]) (by first | rfl | simp [Act.eval, Act.put]) (World.ownsRow_nil _ _ _ _) (some ⟨g, 0, none⟩) (cap) (cap) ((M.take cap).flatMap Hd.L) (by first | rfl | simp [Act.eval, Act.put]) (fun h => by cases h) HTL.out (row_news (hds_take8 (hrc.below hbd2) cap)) (by first | exact hds_one _ | exact h.L_one | exact (fun u hu => (by cases hu))) (by unfold maxLen; omega) (by omega) hbd2.size ?_
                    intro v1 w1 hown1 hgr1
                    simp only [Nat.zero_add, List.nil_append] at hown1
                    have hN1 : w1.heap[wc.heap.size]? = some (.cells h.row 43 (0, 0)) := grown_at (row := none) ⟨hgr1.os, hgr1.tape, hgr1.output, hgr1.size, hgr1.block⟩ (heap_push wc.drew h.row 43) (by simp)
                    have hb1 := hbd2.trans (grown_lowM hgr1 (fun k h => by cases h) hbd2.size)
                    refine hK _ _ ?_
                    clear hK K
                    change wpAny _ _ _ _ _ _ (Act.put _ (some 37) _) _; dsimp only [Act.put]; simp only [List.setIfInBounds_toArray, List.set_cons_succ, List.set_cons_zero]
                    refine wpAny_ready (rs := [6]) (by kernel_rfl) (by simp) ?_
                    refine (AllReady.cons rfl (fun K hK => ?_) AllReady.nil)
                    refine step_append_ownA rfl (.tmp 37) (.tmp 39) 36 rfl wc.heap.size 43 i0 (.agg zeroHd.row) 34 48 Try.underlying36 hi0 hz0 hzs hzb Hd.row_size0 (by decide) (v1) (cap) ((M.take cap).flatMap Hd.L) (by first | rfl | simp [Act.eval, Act.put]) hown1 (some ⟨wc.heap.size, 0, none⟩) (1) (1) (h.L) (by first | rfl | simp [Act.eval, Act.put]) (fun h => by cases h) (by rw [Hd.L_len]) (some_funH (hd_new hN1)) (by first | exact hds_one _ | exact h.L_one | exact (fun u hu => (by cases hu))) (by unfold maxLen; omega) (by omega) hb1.size ?_
                    intro v2 w2 hown2 hgr2
                    have hb2 := hb1.trans (below_grown hown1 hgr2 hb1.size)
                    refine hK _ _ ?_
                    clear hK K
                    change wpAny _ _ _ _ _ _ (Act.put _ (some 40) _) _; dsimp only [Act.put]; simp only [List.setIfInBounds_toArray, List.set_cons_succ, List.set_cons_zero]
                    refine wpAny_ready (rs := [10]) (by kernel_rfl) (by simp) ?_
                    refine (AllReady.cons rfl (fun K hK => ?_) AllReady.nil)
                    refine step_append_ownA rfl (.tmp 40) (.tmp 43) 36 rfl wc.heap.size 43 i0 (.agg zeroHd.row) 34 48 Try.underlying36 hi0 hz0 hzs hzb Hd.row_size0 (by decide) (v2) (cap + 1) ((M.take cap).flatMap Hd.L ++ h.L) (by first | rfl | simp [Act.eval, Act.put]) hown2 (some ⟨g, 0, none⟩) (0) (0) ([]) (by first | rfl | simp [Act.eval, Act.put]) (fun h => by cases h) rfl (fun ad e j u hu => (by  cases hu)) (by first | exact hds_one _ | exact h.L_one | exact (fun u hu => (by cases hu))) (by unfold maxLen; omega) (by omega) hb2.size ?_
                    intro v3 w3 hown3 hgr3
                    have hb3 := hb2.trans (below_grown hown2 hgr3 hb2.size)
                    refine hK _ _ ?_
                    clear hK K
                    change wpAny _ _ _ _ _ _ (Act.put _ (some 44) _) _; dsimp only [Act.put]; simp only [List.setIfInBounds_toArray, List.set_cons_succ, List.set_cons_zero]
                    refine wpAny_take (i := 11) (v := v3) rfl (by kernel_rfl) (by kernel_rfl) (by kernel_rfl) (fun _ _ _ h => h) (Or.inl ⟨by rfl, fun w9 => by (go_simp; try with_reducible rfl)⟩) ?_
                    change wpAny _ _ _ _ _ _ (Act.put _ (some 4) _) _; dsimp only [Act.put]; simp only [List.setIfInBounds_toArray, List.set_cons_succ, List.set_cons_zero]
                    refine wpAny_take (i := 12) (v := .bool true) rfl (by kernel_rfl) (by kernel_rfl) (by kernel_rfl) (fun _ _ _ h => h) (Or.inl ⟨by rfl, fun w9 => by (go_simp; try with_reducible rfl)⟩) ?_
                    change wpAny _ _ _ _ _ _ (Act.put _ (some 5) _) _; dsimp only [Act.put]; simp only [List.setIfInBounds_toArray, List.set_cons_succ, List.set_cons_zero]
                    refine wpAny_done (by kernel_rfl) ?_ _
                    go_wp2
                    go_returns
                    refine ⟨_, rfl, ?_, hbw.trans (hb3.mono hbw.size)⟩
                    have h9 := own_lowerM hown3 (Nat.le_trans hB hbw.size)
                    rw [HIL.out, HIF.out]
                    simpa [HD0.out] using h9
            · skip
              as_aux_lemma =>
                refine wp_region_any (by kernel_rfl) ?_
                change wpAny _ _ _ _ _ _ _ (World.drew _)
                refine wpAny_take (i := 0) (v := .slice (some ⟨g, 0, none⟩) n cap) rfl (by kernel_rfl) (by kernel_rfl) (by kernel_rfl) (fun _ _ _ h => h) (Or.inl ⟨by rfl, fun w9 => by (go_simp; try with_reducible rfl)⟩) ?_
                change wpAny _ _ _ _ _ _ (Act.put _ (some 34) _) _; dsimp only [Act.put]; simp only [List.setIfInBounds_toArray, List.set_cons_succ, List.set_cons_zero]
                refine wpAny_take (i := 1) (v := .int .i64 (k : Int)) rfl (by kernel_rfl) (by kernel_rfl) (by kernel_rfl) (fun _ _ _ h => h) (Or.inl ⟨by rfl, fun w9 => by (go_simp; try with_reducible rfl)⟩) ?_
                change wpAny _ _ _ _ _ _ (Act.put _ (some 35) _) _; dsimp only [Act.put]; simp only [List.setIfInBounds_toArray, List.set_cons_succ, List.set_cons_zero]
                refine wpAny_take (i := 2) (v := .slice (some ⟨g, 0, none⟩) (k) (cap)) rfl (by kernel_rfl) (by kernel_rfl) (by kernel_rfl) (fun _ _ _ h => h) (Or.inl ⟨by rfl, fun w9 => by (go_simp; try with_reducible rfl)⟩) ?_
                change wpAny _ _ _ _ _ _ (Act.put _ (some 36) _) _; dsimp only [Act.put]; simp only [List.setIfInBounds_toArray, List.set_cons_succ, List.set_cons_zero]
                refine wpAny_take (i := 7) (v := .slice (some ⟨g, 0, none⟩) n cap) rfl (by kernel_rfl) (by kernel_rfl) (by kernel_rfl) (fun _ _ _ h => h) (Or.inl ⟨by rfl, fun w9 => by (go_simp; try with_reducible rfl)⟩) ?_
                change wpAny _ _ _ _ _ _ (Act.put _ (some 41) _) _; dsimp only [Act.put]; simp only [List.setIfInBounds_toArray, List.set_cons_succ, List.set_cons_zero]
                refine wpAny_take (i := 8) (v := .int .i64 (k : Int)) rfl (by kernel_rfl) (by kernel_rfl) (by kernel_rfl) (fun _ _ _ h => h) (Or.inl ⟨by rfl, fun w9 => by (go_simp; try with_reducible rfl)⟩) ?_
                change wpAny _ _ _ _ _ _ (Act.put _ (some 42) _) _; dsimp only [Act.put]; simp only [List.setIfInBounds_toArray, List.set_cons_succ, List.set_cons_zero]
                refine wpAny_take (i := 9) (v := .slice (some ⟨g, k * 34, none⟩) (n - k) (cap - k)) rfl (by kernel_rfl) (by kernel_rfl) (by kernel_rfl) (fun _ _ _ h => h) (Or.inl ⟨by rfl, fun w9 => by (go_simp; try with_reducible rfl)⟩) ?_
                change wpAny _ _ _ _ _ _ (Act.put _ (some 43) _) _; dsimp only [Act.put]; simp only [List.setIfInBounds_toArray, List.set_cons_succ, List.set_cons_zero]
                refine wpAny_ready (rs := [3, 4]) (by kernel_rfl) (by simp) ?_
                refine (AllReady.cons rfl (fun K hK => ?_) (AllReady.cons rfl (fun K hK => ?_) AllReady.nil))
                · refine step_append_ownA rfl (.const (.slice none 0 0)) (.tmp 36) 36 rfl wc.heap.size 43 i0 (.agg zeroHd.row) 34 48 Try.underlying36 hi0 hz0 hzs hzb Hd.row_size0 (by decide) (.slice none 0 0) (0) ([]) (by first | rfl | simp [Act.eval, Act.put]) (World.ownsRow_nil _ _ _ _) (some ⟨g, 0, none⟩) (k) (cap) ((M.take k).flatMap Hd.L) (by first | rfl | simp [Act.eval, Act.put]) (fun h => by cases h) HTL.out (row_news (hds_take8 (hrc.below hbd) k)) (by first | exact hds_one _ | exact h.L_one | exact (fun u hu => (by cases hu))) (by unfold maxLen; omega) (by omega) hbd.size ?_
                  intro v1 w1 hown1 hgr1
                  simp only [Nat.zero_add, List.nil_append] at hown1
                  have hb1 := hbd.trans (grown_lowM hgr1 (fun k h => by cases h) hbd.size)
                  have hq1 := cells_of hqc hb1 (row_lt hqc)
                  refine hK _ _ ?_
                  clear hK K
                  change wpAny _ _ _ _ _ _ (Act.put _ (some 37) _) _; dsimp only [Act.put]; simp only [List.setIfInBounds_toArray, List.set_cons_succ, List.set_cons_zero]
                  refine wpAny_ready (rs := [4]) (by kernel_rfl) (by simp) ?_
                  refine (AllReady.cons rfl (fun K hK => ?_) AllReady.nil)
                  refine step_loadHd (.tmp 3) rfl (by rfl) w.heap.size 0 (by first | rfl | simp [Act.eval, Act.put]) h (hd_range hq1) ?_
                  refine hK _ _ ?_
                  clear hK K
                  change wpAny _ _ _ _ _ _ (Act.put _ (some 38) _) _; dsimp only [Act.put]; simp only [List.setIfInBounds_toArray, List.set_cons_succ, List.set_cons_zero]
                  refine wpAny_ready (rs := [5]) (by kernel_rfl) (by simp) ?_
                  refine (AllReady.cons rfl (fun K hK => ?_) AllReady.nil)
                  refine step_oneH rfl (.tmp 38) rfl h (by first | rfl | simp [Act.eval, Act.put]) ?_
                  refine hK _ _ ?_
                  clear hK K
                  change wpAny _ _ _ _ _ _ (Act.put _ (some 39) _) _; dsimp only [Act.put]; simp only [List.setIfInBounds_toArray, List.set_cons_succ, List.set_cons_zero]
                  refine wpAny_ready (rs := [6]) (by kernel_rfl) (by simp) ?_
                  refine (AllReady.cons rfl (fun K hK => ?_) AllReady.nil)
                  refine step_append_ownA rfl (.tmp 37) (.tmp 39) 36 rfl wc.heap.size 43 i0 (.agg zeroHd.row) 34 48 Try.underlying36 hi0 hz0 hzs hzb Hd.row_size0 (by decide) (v1) (k) ((M.take k).flatMap Hd.L) (by first | rfl | simp [Act.eval, Act.put]) (hown1.alloc _) (some ⟨w1.heap.size, 0, none⟩) (1) (1) (h.L) (by first | rfl | simp [Act.eval, Act.put]) (fun h => by cases h) (by rw [Hd.L_len]) (some_funH (hd_new (heap_push w1 h.row 43))) (by first | exact hds_one _ | exact h.L_one | exact (fun u hu => (by cases hu))) (by unfold maxLen; omega) (by omega) (hb1.alloc hb1.size _).size ?_
                  intro v2 w2 hown2 hgr2
                  have hb2 := (hb1.alloc hb1.size _).trans (below_grown (hown1.alloc _) hgr2 (hb1.alloc hb1.size _).size)
                  refine hK _ _ ?_
                  clear hK K
                  change wpAny _ _ _ _ _ _ (Act.put _ (some 40) _) _; dsimp only [Act.put]; simp only [List.setIfInBounds_toArray, List.set_cons_succ, List.set_cons_zero]
                  refine wpAny_ready (rs := [10]) (by kernel_rfl) (by simp) ?_
                  refine (AllReady.cons rfl (fun K hK => ?_) AllReady.nil)
                  refine step_append_ownA rfl (.tmp 40) (.tmp 43) 36 rfl wc.heap.size 43 i0 (.agg zeroHd.row) 34 48 Try.underlying36 hi0 hz0 hzs hzb Hd.row_size0 (by decide) (v2) (k + 1) ((M.take k).flatMap Hd.L ++ h.L) (by first | rfl | simp [Act.eval, Act.put]) hown2 (some ⟨g, k * 34, none⟩) (n - k) (cap - k) ((M.drop k).flatMap Hd.L) (by first | rfl | simp [Act.eval, Act.put]) (fun h => by cases h) HDL.out (hds_dropN (hrc.below hb2) k) (by first | exact hds_one _ | exact h.L_one | exact (fun u hu => (by cases hu))) (by unfold maxLen; omega) (by omega) hb2.size ?_
                  intro v3 w3 hown3 hgr3
                  have hb3 := hb2.trans (below_grown hown2 hgr3 hb2.size)
                  refine hK _ _ ?_
                  clear hK K
                  change wpAny _ _ _ _ _ _ (Act.put _ (some 44) _) _; dsimp only [Act.put]; simp only [List.setIfInBounds_toArray, List.set_cons_succ, List.set_cons_zero]
                  refine wpAny_take (i := 11) (v := v3) rfl (by kernel_rfl) (by kernel_rfl) (by kernel_rfl) (fun _ _ _ h => h) (Or.inl ⟨by rfl, fun w9 => by (go_simp; try with_reducible rfl)⟩) ?_
                  change wpAny _ _ _ _ _ _ (Act.put _ (some 4) _) _; dsimp only [Act.put]; simp only [List.setIfInBounds_toArray, List.set_cons_succ, List.set_cons_zero]
                  refine wpAny_take (i := 12) (v := .bool true) rfl (by kernel_rfl) (by kernel_rfl) (by kernel_rfl) (fun _ _ _ h => h) (Or.inl ⟨by rfl, fun w9 => by (go_simp; try with_reducible rfl)⟩) ?_
                  change wpAny _ _ _ _ _ _ (Act.put _ (some 5) _) _; dsimp only [Act.put]; simp only [List.setIfInBounds_toArray, List.set_cons_succ, List.set_cons_zero]
                  refine wpAny_done (by kernel_rfl) ?_ _
                  go_wp2
                  go_returns
                  refine ⟨_, rfl, ?_, hbw.trans (hb3.mono hbw.size)⟩
                  have h9 := own_lowerM hown3 (Nat.le_trans hB hbw.size)
                  rw [HIL.out, HIF.out]
                  exact h9
                · refine step_loadHd (.tmp 3) rfl (by rfl) w.heap.size 0 (by first | rfl | simp [Act.eval, Act.put]) h (hd_range hqd) ?_
                  refine hK _ _ ?_
                  clear hK K
                  change wpAny _ _ _ _ _ _ (Act.put _ (some 38) _) _; dsimp only [Act.put]; simp only [List.setIfInBounds_toArray, List.set_cons_succ, List.set_cons_zero]
                  refine wpAny_ready (rs := [3, 5]) (by kernel_rfl) (by simp) ?_
                  refine (AllReady.cons rfl (fun K hK => ?_) (AllReady.cons rfl (fun K hK => ?_) AllReady.nil))
                  · refine step_append_ownA rfl (.const (.slice none 0 0)) (.tmp 36) 36 rfl wc.heap.size 43 i0 (.agg zeroHd.row) 34 48 Try.underlying36 hi0 hz0 hzs hzb Hd.row_size0 (by decide) (.slice none 0 0) (0) ([]) (by first | rfl | simp [Act.eval, Act.put]) (World.ownsRow_nil _ _ _ _) (some ⟨g, 0, none⟩) (k) (cap) ((M.take k).flatMap Hd.L) (by first | rfl | simp [Act.eval, Act.put]) (fun h => by cases h) HTL.out (row_news (hds_take8 (hrc.below hbd) k)) (by first | exact hds_one _ | exact h.L_one | exact (fun u hu => (by cases hu))) (by unfold maxLen; omega) (by omega) hbd.size ?_
                    intro v1 w1 hown1 hgr1
                    simp only [Nat.zero_add, List.nil_append] at hown1
                    have hb1 := hbd.trans (grown_lowM hgr1 (fun k h => by cases h) hbd.size)
                    have hq1 := cells_of hqc hb1 (row_lt hqc)
                    refine hK _ _ ?_
                    clear hK K
                    change wpAny _ _ _ _ _ _ (Act.put _ (some 37) _) _; dsimp only [Act.put]; simp only [List.setIfInBounds_toArray, List.set_cons_succ, List.set_cons_zero]
                    refine wpAny_ready (rs := [5]) (by kernel_rfl) (by simp) ?_
                    refine (AllReady.cons rfl (fun K hK => ?_) AllReady.nil)
                    refine step_oneH rfl (.tmp 38) rfl h (by first | rfl | simp [Act.eval, Act.put]) ?_
                    refine hK _ _ ?_
                    clear hK K
                    change wpAny _ _ _ _ _ _ (Act.put _ (some 39) _) _; dsimp only [Act.put]; simp only [List.setIfInBounds_toArray, List.set_cons_succ, List.set_cons_zero]
                    refine wpAny_ready (rs := [6]) (by kernel_rfl) (by simp) ?_
                    refine (AllReady.cons rfl (fun K hK => ?_) AllReady.nil)
                    refine step_append_ownA rfl (.tmp 37) (.tmp 39) 36 rfl wc.heap.size 43 i0 (.agg zeroHd.row) 34 48 Try.underlying36 hi0 hz0 hzs hzb Hd.row_size0 (by decide) (v1) (k) ((M.take k).flatMap Hd.L) (by first | rfl | simp [Act.eval, Act.put]) (hown1.alloc _) (some ⟨w1.heap.size, 0, none⟩) (1) (1) (h.L) (by first | rfl | simp [Act.eval, Act.put]) (fun h => by cases h) (by rw [Hd.L_len]) (some_funH (hd_new (heap_push w1 h.row 43))) (by first | exact hds_one _ | exact h.L_one | exact (fun u hu => (by cases hu))) (by unfold maxLen; omega) (by omega) (hb1.alloc hb1.size _).size ?_
                    intro v2 w2 hown2 hgr2
                    have hb2 := (hb1.alloc hb1.size _).trans (below_grown (hown1.alloc _) hgr2 (hb1.alloc hb1.size _).size)
                    refine hK _ _ ?_
                    clear hK K
                    change wpAny _ _ _ _ _ _ (Act.put _ (some 40) _) _; dsimp only [Act.put]; simp only [List.setIfInBounds_toArray, List.set_cons_succ, List.set_cons_zero]
                    refine wpAny_ready (rs := [10]) (by kernel_rfl) (by simp) ?_
                    refine (AllReady.cons rfl (fun K hK => ?_) AllReady.nil)
                    refine step_append_ownA rfl (.tmp 40) (.tmp 43) 36 rfl wc.heap.size 43 i0 (.agg zeroHd.row) 34 48 Try.underlying36 hi0 hz0 hzs hzb Hd.row_size0 (by decide) (v2) (k + 1) ((M.take k).flatMap Hd.L ++ h.L) (by first | rfl | simp [Act.eval, Act.put]) hown2 (some ⟨g, k * 34, none⟩) (n - k) (cap - k) ((M.drop k).flatMap Hd.L) (by first | rfl | simp [Act.eval, Act.put]) (fun h => by cases h) HDL.out (hds_dropN (hrc.below hb2) k) (by first | exact hds_one _ | exact h.L_one | exact (fun u hu => (by cases hu))) (by unfold maxLen; omega) (by omega) hb2.size ?_
                    intro v3 w3 hown3 hgr3
                    have hb3 := hb2.trans (below_grown hown2 hgr3 hb2.size)
                    refine hK _ _ ?_
                    clear hK K
                    change wpAny _ _ _ _ _ _ (Act.put _ (some 44) _) _; dsimp only [Act.put]; simp only [List.setIfInBounds_toArray, List.set_cons_succ, List.set_cons_zero]
                    refine wpAny_take (i := 11) (v := v3) rfl (by kernel_rfl) (by kernel_rfl) (by kernel_rfl) (fun _ _ _ h => h) (Or.inl ⟨by rfl, fun w9 => by (go_simp; try with_reducible rfl)⟩) ?_
                    change wpAny _ _ _ _ _ _ (Act.put _ (some 4) _) _; dsimp only [Act.put]; simp only [List.setIfInBounds_toArray, List.set_cons_succ, List.set_cons_zero]
                    refine wpAny_take (i := 12) (v := .bool true) rfl (by kernel_rfl) (by kernel_rfl) (by kernel_rfl) (fun _ _ _ h => h) (Or.inl ⟨by rfl, fun w9 => by (go_simp; try with_reducible rfl)⟩) ?_
                    change wpAny _ _ _ _ _ _ (Act.put _ (some 5) _) _; dsimp only [Act.put]; simp only [List.setIfInBounds_toArray, List.set_cons_succ, List.set_cons_zero]
                    refine wpAny_done (by kernel_rfl) ?_ _
                    go_wp2
                    go_returns
                    refine ⟨_, rfl, ?_, hbw.trans (hb3.mono hbw.size)⟩
                    have h9 := own_lowerM hown3 (Nat.le_trans hB hbw.size)
                    rw [HIL.out, HIF.out]
                    exact h9
                  · refine step_oneH rfl (.tmp 38) rfl h (by first | rfl | simp [Act.eval, Act.put]) ?_
                    refine hK _ _ ?_
                    clear hK K
                    change wpAny _ _ _ _ _ _ (Act.put _ (some 39) _) _; dsimp only [Act.put]; simp only [List.setIfInBounds_toArray, List.set_cons_succ, List.set_cons_zero]
                    refine wpAny_ready (rs := [3]) (by kernel_rfl) (by simp) ?_
                    refine (AllReady.cons rfl (fun K hK => ?_) AllReady.nil)
                    have hbd2 : Below wc.heap.size wc (wc.drew.alloc (.cells h.row 43)) := hbd.alloc hbd.size _
                    refine step_append_ownA rfl (.const (.slice none 0 0)) (.tmp 36) 36 rfl wc.heap.size 43 i0 (.agg zeroHd.row) 34 48 Try.underlying36 hi0 hz0 hzs hzb Hd.row_size0 (by decide) (.slice none 0 0) (0) ([]) (by first | rfl | simp [Act.eval, Act.put]) (World.ownsRow_nil _ _ _ _) (some ⟨g, 0, none⟩) (k) (cap) ((M.take k).flatMap Hd.L) (by first | rfl | simp [Act.eval, Act.put]) (fun h => by cases h) HTL.out (row_news (hds_take8 (hrc.below hbd2) k)) (by first | exact hds_one _ | exact h.L_one | exact (fun u hu => (by cases hu))) (by unfold maxLen; omega) (by omega) hbd2.size ?_
                    intro v1 w1 hown1 hgr1
                    simp only [Nat.zero_add, List.nil_append] at hown1
                    have hN1 : w1.heap[wc.heap.size]? = some (.cells h.row 43 (0, 0)) := grown_at (row := none) ⟨hgr1.os, hgr1.tape, hgr1.output, hgr1.size, hgr1.block⟩ (heap_push wc.drew h.row 43) (by simp)
                    have hb1 := hbd2.trans (grown_lowM hgr1 (fun k h => by cases h) hbd2.size)
                    refine hK _ _ ?_
                    clear hK K
                    change wpAny _ _ _ _ _ _ (Act.put _ (some 37) _) _; dsimp only [Act.put]; simp only [List.setIfInBounds_toArray, List.set_cons_succ, List.set_cons_zero]
                    refine wpAny_ready (rs := [6]) (by kernel_rfl) (by simp) ?_
                    refine (AllReady.cons rfl (fun K hK => ?_) AllReady.nil)
                    refine step_append_ownA rfl (.tmp 37) (.tmp 39) 36 rfl wc.heap.size 43 i0 (.agg zeroHd.row) 34 48 Try.underlying36 hi0 hz0 hzs hzb Hd.row_size0 (by decide) (v1) (k) ((M.take k).flatMap Hd.L) (by first | rfl | simp [Act.eval, Act.put]) hown1 (some ⟨wc.heap.size, 0, none⟩) (1) (1) (h.L) (by first | rfl | simp [Act.eval, Act.put]) (fun h => by cases h) (by rw [Hd.L_len]) (some_funH (hd_new hN1)) (by first | exact hds_one _ | exact h.L_one | exact (fun u hu => (by cases hu))) (by unfold maxLen; omega) (by omega) hb1.size ?_
                    intro v2 w2 hown2 hgr2
                    have hb2 := hb1.trans (below_grown hown1 hgr2 hb1.size)
                    refine hK _ _ ?_
                    clear hK K
                    change wpAny _ _ _ _ _ _ (Act.put _ (some 40) _) _; dsimp only [Act.put]; simp only [List.setIfInBounds_toArray, List.set_cons_succ, List.set_cons_zero]
                    refine wpAny_ready (rs := [10]) (by kernel_rfl) (by simp) ?_
                    refine (AllReady.cons rfl (fun K hK => ?_) AllReady.nil)
                    refine step_append_ownA rfl (.tmp 40) (.tmp 43) 36 rfl wc.heap.size 43 i0 (.agg zeroHd.row) 34 48 Try.underlying36 hi0 hz0 hzs hzb Hd.row_size0 (by decide) (v2) (k + 1) ((M.take k).flatMap Hd.L ++ h.L) (by first | rfl | simp [Act.eval, Act.put]) hown2 (some ⟨g, k * 34, none⟩) (n - k) (cap - k) ((M.drop k).flatMap Hd.L) (by first | rfl | simp [Act.eval, Act.put]) (fun h => by cases h) HDL.out (hds_dropN (hrc.below hb2) k) (by first | exact hds_one _ | exact h.L_one | exact (fun u hu => (by cases hu))) (by unfold maxLen; omega) (by omega) hb2.size ?_
                    intro v3 w3 hown3 hgr3
                    have hb3 := hb2.trans (below_grown hown2 hgr3 hb2.size)
                    refine hK _ _ ?_
                    clear hK K
                    change wpAny _ _ _ _ _ _ (Act.put _ (some 44) _) _; dsimp only [Act.put]; simp only [List.setIfInBounds_toArray, List.set_cons_succ, List.set_cons_zero]
                    refine wpAny_take (i := 11) (v := v3) rfl (by kernel_rfl) (by kernel_rfl) (by kernel_rfl) (fun _ _ _ h => h) (Or.inl ⟨by rfl, fun w9 => by (go_simp; try with_reducible rfl)⟩) ?_
                    change wpAny _ _ _ _ _ _ (Act.put _ (some 4) _) _; dsimp only [Act.put]; simp only [List.setIfInBounds_toArray, List.set_cons_succ, List.set_cons_zero]
                    refine wpAny_take (i := 12) (v := .bool true) rfl (by kernel_rfl) (by kernel_rfl) (by kernel_rfl) (fun _ _ _ h => h) (Or.inl ⟨by rfl, fun w9 => by (go_simp; try with_reducible rfl)⟩) ?_
                    change wpAny _ _ _ _ _ _ (Act.put _ (some 5) _) _; dsimp only [Act.put]; simp only [List.setIfInBounds_toArray, List.set_cons_succ, List.set_cons_zero]
                    refine wpAny_done (by kernel_rfl) ?_ _
                    go_wp2
                    go_returns
                    refine ⟨_, rfl, ?_, hbw.trans (hb3.mono hbw.size)⟩
                    have h9 := own_lowerM hown3 (Nat.le_trans hB hbw.size)
                    rw [HIL.out, HIF.out]
                    exact h9
end Go.Proofs.Ytbckncopdkmoeaa
