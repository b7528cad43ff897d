/- slices.Insert of one proof.Pair. -/
import Derived.Test.YtpledhipdiephaaDoorInsG
import Derived.Shelf.Spec.SlicesInsertGrow
import Derived.Lib.Overlaps
import Derived.Lib.AppendZerosOnto
import Derived.BigRegion
import Derived.RegionTactic
import Derived.Deep.RegionLaw
import Derived.LoopTactic
import Derived.Laws.OwnMore
import Derived.Laws.Externs
import Derived.WalkKit
import Derived.ProofKit
import Derived.Handy
import Derived.Below
import Derived.Lib.Hide
import Derived.IntWalk
import Derived.Outline
import Derived.WalkLawsBesides
import Derived.WalkSpells
namespace Go.Proofs.YtpledhipdiephaaDoor
open Go.RowKit
attribute [local go_sem] strV
set_option linter.unusedVariables false
theorem Tryd.infoPr : (Tryd.prog.info? 41).map (fun i => (i.zero, i.size, i.bytes)) = some (some (.agg #[.string ⟨#[]⟩, .string ⟨#[]⟩]), 2, 32) := by kernel_rfl
set_option maxRecDepth 100000 in
set_option maxHeartbeats 6400000 in
/-- At the end, or into nothing. -/
theorem insPr_end {base n gv : Nat} {v : Value} {xs : List Value} {u0 u1 : Value} {w : World} (hown : w.ownsRow base 41 2 v n xs) (hn : n ≤ 1000000) (hbase : base ≤ w.heap.size)
    (hgv : w.heap[gv]? = some (.cells #[u0, u1] 41 (0, 0))) (h0 : u0.oneCell' = true) (h1 : u1.oneCell' = true) :
    Calls Tryd.prog 50 #[v, .int .i64 (n : Int), .slice (some ⟨gv, 0, none⟩) 1 1] w fun e w' => ∃ v', e = .returned v' ∧ w'.ownsRow base 41 2 v' (n + 1) (xs ++ [u0, u1]) ∧ w.grownBy w' v.ownBlock ∧ (v'.ownBlock = v.ownBlock ∨ v'.ownBlock = some w.heap.size) := by
  obtain ⟨i0, hi0, hz0, hzs, hzb⟩ := info_parts Tryd.infoPr
  obtain ⟨a9, c9, hv9, _, hc1, hc2, _⟩ := own_sliceN hown
  subst hv9
  unfold maxLen at hc2
  have e1 : ((n : Int) == (n : Int)) = true := by simp
  have e1n : (n == n) = true := by simp
  have f1 : (n : Int) ≤ (c9 : Int) := by omega
  have f2 : ((n : Nat) : Int).toNat = n := by omega
  go_enter Tryd.func50, Tryd.ntmps50
  go_wp2_with (at_builtin; refine wpList_append_own_at _ rfl (.tmp 23) (.tmp 24) 39 rfl base 41 i0 (.agg #[.string ⟨#[]⟩, .string ⟨#[]⟩]) 2 32 Tryd.underlying39 hi0 hz0 hzs hzb rfl (by decide) _ _ _ rfl hown ⟨gv, 0, none⟩ 1 1 [u0, u1] rfl rfl (fun j u hu => by rw [Addr.add_lit, Nat.zero_add, cell_heap hgv]; simpa using hu) (fun u hu => by simp at hu; rcases hu with rfl | rfl <;> assumption) (by unfold maxLen; omega) (by omega) hbase ?_; intro v2 w2 hown2 hgr2 _ hat2)
  all_goals
    go_ret
    refine ⟨_, rfl, hown2, ?_, ?_⟩
    · have h : w.grownBy w2 (Value.slice a9 n c9).ownBlock := hgr2
      first | exact h | (rw [own_capS a9 n _ c9]; exact h)
    · have h : _ = (Value.slice a9 n c9).ownBlock ∨ _ := hat2
      first | exact h | (rw [own_capS a9 n _ c9]; exact h)
set_option maxRecDepth 100000 in
set_option maxHeartbeats 6400000 in
/-- In the midst, no room: a new row. -/
theorem insPr_grow {base n i c g gv : Nat} {xs : List Value} {u0 u1 : Value} {w : World} (hown : w.ownsRow base 41 2 (.slice (some ⟨g, 0, none⟩) n c) n xs) (hx1 : ∀ u ∈ xs, u.oneCell' = true) (hi : i < n) (hn : n ≤ 1000000) (hbase : base ≤ w.heap.size)
    (hgv : w.heap[gv]? = some (.cells #[u0, u1] 41 (0, 0))) (h0 : u0.oneCell' = true) (h1 : u1.oneCell' = true) (hroom : c < n + 1) :
    Calls Tryd.prog 50 #[.slice (some ⟨g, 0, none⟩) n c, .int .i64 (i : Int), .slice (some ⟨gv, 0, none⟩) 1 1] w fun e w' => ∃ v', e = .returned v' ∧ w'.ownsRow base 41 2 v' (n + 1) (xs.take (i * 2) ++ [u0, u1] ++ xs.drop (i * 2)) ∧ w.grownBy w' none ∧ v'.ownBlock = some w.heap.size := by
  obtain ⟨i0, hi0, hz0, hzs, hzb⟩ := info_parts Tryd.infoPr
  have hsz : (Tryd.prog.info? 41).map (·.size) = some 2 := by rw [hi0]; simp [hzs]
  have hxl : xs.length = n * 2 := hown.1
  obtain ⟨cur, hg, hnc, hcs, htk⟩ : ∃ cur : Array Value, w.heap[g]? = some (.cells cur 41 (0, 0)) ∧ n ≤ c ∧ cur.size = c * 2 ∧ cur.toList.take (n * 2) = xs := by
    rcases hown.2 with ⟨h, _⟩ | ⟨g', cap', cur, h, _, h3, h4, _, h6, h7⟩
    · cases h
    · simp only [Value.slice.injEq, Option.some.injEq, Addr.mk.injEq, and_true, true_and] at h
      obtain ⟨rfl, rfl⟩ := h
      exact ⟨cur, h3, h4, h6, h7⟩
  have hgl : g < w.heap.size := row_lt hg
  have hvl : gv < w.heap.size := row_lt hgv
  have hold : (Builtin.firstCells i0.size i (.slice (some ⟨g, 0, none⟩) i c)).run Tryd.prog w.drew = .ok (xs.take (i * 2)).toArray w.drew := by
    rw [hzs]
    exact run_firstCells_some w.drew 2 i ⟨g, 0, none⟩ i c (xs.take (i * 2)) (by rw [List.length_take]; omega) (fun j v hj => by
      rw [Addr.add_lit, Nat.zero_add]
      rw [List.getElem?_take] at hj
      split at hj
      · exact (hown.cellAt j (by omega)).trans hj
      · cases hj)
  obtain ⟨G, hG⟩ : ∃ G, G = grownCap w (n + 1) c 41 := ⟨_, rfl⟩
  have hGn : n + 1 ≤ G := by rw [hG]; exact grownCap_ge w _ _ _
  have hG63 : G ≤ maxLen := by rw [hG]; exact grownCap_le_maxLen w (n + 1) c 41 (by unfold maxLen; omega)
  have hG63' : G ≤ 9223372036854775807 := by unfold maxLen at hG63; omega
  obtain ⟨ROW, hROW⟩ : ∃ ROW : Array Value, ROW = (xs.take (i * 2)).toArray ++ Builtin.zeroCells ((.agg #[.string ⟨#[]⟩, .string ⟨#[]⟩]) : Value).cells (n + 1 - i) ++ Builtin.zeroCells ((.agg #[.string ⟨#[]⟩, .string ⟨#[]⟩]) : Value).cells (G - (n + 1)) := ⟨_, rfl⟩
  have hRl : ROW.size = G * 2 := by
    rw [hROW, Array.size_append, Array.size_append, List.size_toArray, List.length_take]
    show min (i * 2) xs.length + (Builtin.zeroCells #[_, _] _).size + (Builtin.zeroCells #[_, _] _).size = _
    rw [zero_len2, zero_len2]; omega
  have hRt : ROW.toList.take (i * 2) = xs.take (i * 2) := by
    rw [hROW, Array.toList_append, Array.toList_append, List.append_assoc, List.take_append_of_le_length (by simp; omega)]
    simp [List.take_take]
  have hkk : (n : Int) + 1 - (i : Int) = ((n + 1 - i : Nat) : Int) := by omega
  have hik : i + (n + 1 - i) = n + 1 := by omega
  have hrz : ∀ ty, (Builtin.append_ #[39, 3] ty #[.slice (some ⟨g, 0, none⟩) i c, .int .i64 ((n : Int) + 1 - (i : Int))]).run Tryd.prog w =
      .ok (.slice (some ⟨w.heap.size, 0, none⟩) (n + 1) G) (w.drew.alloc (.cells ROW 41)) := fun ty => by
    have h := Lib.run_append_grow_zeros w 39 3 ty 41 i0 _ .i64 .i64 Tryd.underlying39 Tryd.underlying3 hi0 hz0 (some ⟨g, 0, none⟩) i c (xs.take (i * 2)) hold (n + 1 - i) (by omega) (by rw [hzs]; decide) (by omega) (by omega) (by rw [hzb]; omega) (by rw [hzb, hik]; exact growslice_fits hroom (by omega))
    rw [hik, ← hG, ← hROW] at h
    rw [hkk]
    exact h
  obtain ⟨N, hN⟩ : ∃ N, w.heap.size = N := ⟨_, rfl⟩
  obtain ⟨R1, hR1⟩ : ∃ R : Array Value, R = (ROW.toList.take (i * 2) ++ [u0, u1] ++ ROW.toList.drop (i * 2 + [u0, u1].length)).toArray := ⟨_, rfl⟩
  have hR1l : R1.size = G * 2 := by rw [hR1, List.size_toArray, row_put _ _ _ (by simp; omega)]; simpa using hRl
  obtain ⟨R2, hR2⟩ : ∃ R : Array Value, R = (R1.toList.take ((i + 1) * 2) ++ xs.drop (i * 2) ++ R1.toList.drop ((i + 1) * 2 + (xs.drop (i * 2)).length)).toArray := ⟨_, rfl⟩
  have hdl : (xs.drop (i * 2)).length = (n - i) * 2 := by rw [List.length_drop]; omega
  have hR2l : R2.size = G * 2 := by rw [hR2, List.size_toArray, row_put _ _ _ (by rw [hdl]; simp; omega)]; simpa using hR1l
  have hR2t : R2.toList.take ((n + 1) * 2) = xs.take (i * 2) ++ [u0, u1] ++ xs.drop (i * 2) := by
    have e1 : R1.toList.take ((i + 1) * 2) = xs.take (i * 2) ++ [u0, u1] := by
      rw [hR1, hRt]
      simp only [List.append_assoc]
      rw [← List.append_assoc, List.take_append_of_le_length (by simp; omega), List.take_of_length_le (by simp; omega)]
    rw [hR2, e1]
    simp only []
    rw [List.take_append_of_le_length (by rw [List.length_append, hdl, List.length_append, List.length_take]; simp; omega), List.take_of_length_le (by rw [List.length_append, hdl, List.length_append, List.length_take]; simp; omega)]
  have hW1N : ∀ W : World, W.heap = (w.drew.alloc (.cells ROW 41)).heap → W.heap[N]? = some (.cells ROW 41 (0, 0)) := fun W hW => by rw [hW, ← hN]; exact heap_push w.drew ROW 41
  have hW1o : ∀ W : World, W.heap = (w.drew.alloc (.cells ROW 41)).heap → ∀ k, k < N → W.heap[k]? = w.heap[k]? := fun W hW k hk => by rw [hW]; exact (Below.alloc (Below.refl N w.drew) (by rw [← hN]; exact Nat.le_refl _) (.cells ROW 41)).block k hk
  have hcpA : ∀ (W : World), W.heap = (w.drew.alloc (.cells ROW 41)).heap → ∀ ty dc, (Builtin.copy_ #[39, 39] ty #[.slice (some ⟨N, i * 2, none⟩) (n + 1 - i) dc, .slice (some ⟨gv, 0, none⟩) 1 1]).run Tryd.prog W = .ok (goInt 1) (W.setRow N R1) := fun W hW ty dc => by
    rw [hR1]
    exact run_copy_rowK 2 W 39 39 ty 41 N (i * 2) (n + 1 - i) dc ⟨gv, 0, none⟩ 1 1 ROW 41 1 [u0, u1] Tryd.underlying39 hsz (hW1N W hW) (by simp only [Nat.min_def]; split <;> omega) rfl
      (fun j v hj => by
        have hh : W.heap[gv]? = some (.cells #[u0, u1] 41 (0, 0)) := (hW1o W hW gv (by omega)).trans hgv
        rw [Addr.add_lit, Nat.zero_add, cell_heap hh]; simpa using hj)
      (by simp; omega) (fun u hu => by simp at hu; rcases hu with rfl | rfl <;> assumption)
  have hcpB : ∀ (W : World), W.heap = ((w.drew.alloc (.cells ROW 41)).setRow N R1).heap → ∀ ty dc sc, (Builtin.copy_ #[39, 39] ty #[.slice (some ⟨N, (i + 1) * 2, none⟩) (n + 1 - (i + 1)) dc, .slice (some ⟨g, i * 2, none⟩) (n - i) sc]).run Tryd.prog W = .ok (goInt ((n - i : Nat) : Int)) (W.setRow N R2) := fun W hW ty dc sc => by
    rw [hR2]
    have hWN : W.heap[N]? = some (.cells R1 41 (0, 0)) := by rw [hW]; exact setRow_heap _ _ _ _ _ _ (hW1N _ rfl)
    have hWg : W.heap[g]? = some (.cells cur 41 (0, 0)) := by rw [hW, setRow_other _ _ _ _ (by omega)]; exact (hW1o _ rfl g (by omega)).trans hg
    exact run_copy_rowK 2 W 39 39 ty 41 N ((i + 1) * 2) (n + 1 - (i + 1)) dc ⟨g, i * 2, none⟩ (n - i) sc R1 41 (n - i) (xs.drop (i * 2)) Tryd.underlying39 hsz hWN (by simp only [Nat.min_def]; split <;> omega) hdl
      (fun j v hj => by
        rw [Addr.add_lit, cell_heap hWg]
        have hjl := (List.getElem?_eq_some_iff.1 hj).1
        rw [hdl] at hjl
        rw [List.getElem?_drop, ← htk, List.getElem?_take, if_pos (by omega)] at hj
        simpa using hj)
      (by rw [hdl]; omega) (fun u hu => hx1 u (List.mem_of_mem_drop hu))
  have n1 : ((i : Int) == (n : Int)) = false := by rw [beq_eq_false_iff_ne]; omega
  have n1n : (i == n) = false := by rw [beq_eq_false_iff_ne]; omega
  have n2 : decide ((c : Int) < (n : Int) + 1) = true := decide_eq_true (by omega)
  have n2n : decide (c < n + 1) = true := decide_eq_true hroom
  have n3 : (0 : Int) ≤ (i : Int) := by omega
  have n4 : (i : Int) ≤ (n : Int) := by omega
  have n5 : (i : Int) ≤ (c : Int) := by omega
  have n6 : ((i : Nat) : Int).toNat = i := by omega
  have n7 : ((i : Int) + 1).toNat = i + 1 := by omega
  have n8 : (i : Int) + 1 ≤ (n : Int) + 1 := by omega
  have n9 : (i : Int) ≤ (n : Int) + 1 := by omega
  have n10 : (0 : Int) ≤ (i : Int) + 1 := by omega
  have n11 : IntKind.i64.wrap ((i : Int) + 1) = (i : Int) + 1 := by rw [IntKind.wrap_i64]; omega
  have hGi : ¬ (G = i) := by omega
  have hGim : ¬ (G = i + 1) := by omega
  have hci : ¬ (c = i) := by omega
  rw [hN] at hrz
  clear hkk hik hold hROW hG hRl hR1 hR2
  go_enter Tryd.func50, Tryd.ntmps50
  go_upto_region 10 with (at_builtin; refine Lib.wpList_append_run _ rfl _ _ _ _ rfl _ _ rfl rfl _ _ (hrz _) ?_)
  iterate 13 go_step
  refine wpList_copy_runI _ rfl _ _ 39 39 rfl _ _ rfl rfl (hcpA ((w.alloc (.cells ROW 41)).drew) rfl _ _) ?_
  go_wp2
  go_region_law (refine step_copy_runI rfl _ _ 39 39 rfl (.slice (some ⟨N, (i + 1) * 2, none⟩) (n + 1 - (i + 1)) (G - (i + 1))) (.slice (some ⟨g, i * 2, none⟩) (n - i) (c - i)) (by simp [Act.eval, Act.put]) (by simp [Act.eval, Act.put]) (hcpB ((((w.alloc (.cells ROW 41)).drew).setRow N R1).drew) rfl _ _ _) ?_)
  go_wp2
  go_ret
  refine ⟨_, rfl, ⟨?_, .inr ⟨N, G, R2, rfl, by omega, ?_, hGn, hG63, hR2l, hR2t⟩⟩, ⟨rfl, rfl, rfl, ?_, fun k hk _ => ?_⟩, by rw [hN]; rfl⟩
  · simp only [List.length_append, List.length_take, List.length_drop, List.length_cons, List.length_nil]; omega
  · refine setRow_heap _ _ R1 _ _ _ ?_
    exact setRow_heap _ _ ROW _ _ _ (hW1N _ rfl)
  · rw [setRow_size]
    show w.heap.size ≤ (((w.alloc (.cells ROW 41)).drew).setRow N R1).heap.size
    rw [setRow_size]
    show w.heap.size ≤ (w.heap.push _).size
    rw [Array.size_push]; omega
  · rw [setRow_other _ _ _ _ (by omega)]
    show ((((w.alloc (.cells ROW 41)).drew).setRow N R1)).heap[k]? = _
    rw [setRow_other _ _ _ _ (by omega)]
    exact hW1o _ rfl k (by omega)
set_option maxRecDepth 100000 in
set_option maxHeartbeats 6400000 in
/-- In the midst, with room: in place. -/
theorem insPr_shift {base n i c g gv : Nat} {xs : List Value} {u0 u1 : Value} {w : World} (hown : w.ownsRow base 41 2 (.slice (some ⟨g, 0, none⟩) n c) n xs) (hx1 : ∀ u ∈ xs, u.oneCell' = true) (hi : i < n) (hn : n ≤ 1000000)
    (hgv : w.heap[gv]? = some (.cells #[u0, u1] 41 (0, 0))) (hne : gv ≠ g) (h0 : u0.oneCell' = true) (h1 : u1.oneCell' = true) (hroom : n + 1 ≤ c) :
    Calls Tryd.prog 50 #[.slice (some ⟨g, 0, none⟩) n c, .int .i64 (i : Int), .slice (some ⟨gv, 0, none⟩) 1 1] w fun e w' => ∃ v', e = .returned v' ∧ w'.ownsRow base 41 2 v' (n + 1) (xs.take (i * 2) ++ [u0, u1] ++ xs.drop (i * 2)) ∧ w.grownBy w' (some g) ∧ v'.ownBlock = some g := by
  obtain ⟨i0, hi0, hz0, hzs, hzb⟩ := info_parts Tryd.infoPr
  have hsz : (Tryd.prog.info? 41).map (·.size) = some 2 := by rw [hi0]; simp [hzs]
  have hzf : ∀ w, (sizeOf 41).run Tryd.prog w = .ok 2 w := fun w => by kernel_rfl
  have hxl : xs.length = n * 2 := hown.1
  obtain ⟨cur, hbase, hg, hc63, hcs, htk⟩ : ∃ cur : Array Value, base ≤ g ∧ w.heap[g]? = some (.cells cur 41 (0, 0)) ∧ c ≤ maxLen ∧ cur.size = c * 2 ∧ cur.toList.take (n * 2) = xs := by
    rcases hown.2 with ⟨h, _⟩ | ⟨g', cap', cur, h, h2, h3, _, h5, h6, h7⟩
    · cases h
    · simp only [Value.slice.injEq, Option.some.injEq, Addr.mk.injEq, and_true, true_and] at h
      obtain ⟨rfl, rfl⟩ := h
      exact ⟨cur, h2, h3, h5, h6, h7⟩
  have hc63' : c ≤ 9223372036854775807 := by unfold maxLen at hc63; omega
  have hgl : g < w.heap.size := row_lt hg
  have hvl : gv < w.heap.size := row_lt hgv
  have hov : ∀ lb cb, (callFunc 74 #[.slice (some ⟨gv, 0, none⟩) 1 1, .slice (some ⟨g, (i + 1) * 2, none⟩) lb cb]).run Tryd.prog w = .ok (.value (.bool false)) w := fun lb cb => by
    rw [run_callFunc_extern Tryd.func74 (by kernel_rfl) (by kernel_rfl) (by kernel_rfl) (e := Extern.SlicesOverlaps.overlaps #[39, 39] #[4]) (by kernel_rfl),
      Lib.run_overlaps_apart w 39 4 41 Tryd.underlying39 2 hzf ⟨gv, 0, none⟩ ⟨g, (i + 1) * 2, none⟩ 1 1 lb cb hne 41 41 2 (c * 2) (by unfold World.shape?; rw [hgv]; rfl) (by unfold World.shape?; rw [hg]; simp [hcs]) (by omega) (by unfold World.frozen?; rw [hgv]; rfl) (by unfold World.frozen?; rw [hgv]; rfl)]
    rfl
  obtain ⟨R1, hR1⟩ : ∃ R : Array Value, R = (cur.toList.take ((i + 1) * 2) ++ xs.drop (i * 2) ++ cur.toList.drop ((i + 1) * 2 + (xs.drop (i * 2)).length)).toArray := ⟨_, rfl⟩
  have hdl : (xs.drop (i * 2)).length = (n - i) * 2 := by rw [List.length_drop]; omega
  have hR1l : R1.size = c * 2 := by rw [hR1, List.size_toArray, row_put _ _ _ (by rw [hdl]; simp; omega)]; simpa using hcs
  obtain ⟨R2, hR2⟩ : ∃ R : Array Value, R = (R1.toList.take (i * 2) ++ [u0, u1] ++ R1.toList.drop (i * 2 + [u0, u1].length)).toArray := ⟨_, rfl⟩
  have hR2l : R2.size = c * 2 := by rw [hR2, List.size_toArray, row_put _ _ _ (by simp; omega)]; simpa using hR1l
  have hR2t : R2.toList.take ((n + 1) * 2) = xs.take (i * 2) ++ [u0, u1] ++ xs.drop (i * 2) := by
    have hct : cur.toList.take (i * 2) = xs.take (i * 2) := by rw [← htk, List.take_take]; congr 1; omega
    have hcl : (cur.toList.take ((i + 1) * 2)).length = (i + 1) * 2 := by rw [List.length_take]; simp; omega
    have e1 : R1.toList.take (i * 2) = xs.take (i * 2) := by
      rw [hR1]
      simp only []
      rw [List.append_assoc, List.take_append_of_le_length (by rw [hcl]; omega), List.take_take, show min (i * 2) ((i + 1) * 2) = i * 2 by omega, hct]
    have e2 : R1.toList.drop (i * 2 + [u0, u1].length) = xs.drop (i * 2) ++ cur.toList.drop ((i + 1) * 2 + (xs.drop (i * 2)).length) := by
      rw [hR1]
      simp only []
      rw [List.append_assoc, List.drop_append_of_le_length (by rw [hcl]; simp; omega), List.drop_of_length_le (by rw [hcl]; simp; omega), List.nil_append]
    rw [hR2, e1, e2]
    simp only []
    rw [← List.append_assoc, List.take_append_of_le_length (by rw [List.length_append, hdl, List.length_append, List.length_take]; simp; omega), List.take_of_length_le (by rw [List.length_append, hdl, List.length_append, List.length_take]; simp; omega)]
  have hcpB : ∀ (W : World), W.heap = w.heap → ∀ ty dc sc, (Builtin.copy_ #[39, 39] ty #[.slice (some ⟨g, (i + 1) * 2, none⟩) (n + 1 - (i + 1)) dc, .slice (some ⟨g, i * 2, none⟩) (n + 1 - i) sc]).run Tryd.prog W = .ok (goInt ((n - i : Nat) : Int)) (W.setRow g R1) := fun W hW ty dc sc => by
    rw [hR1]
    have hWg : W.heap[g]? = some (.cells cur 41 (0, 0)) := by rw [hW]; exact hg
    exact run_copy_rowK 2 W 39 39 ty 41 g ((i + 1) * 2) (n + 1 - (i + 1)) dc ⟨g, i * 2, none⟩ (n + 1 - i) sc cur 41 (n - i) (xs.drop (i * 2)) Tryd.underlying39 hsz hWg (by simp only [Nat.min_def]; split <;> omega) hdl
      (fun j v hj => by
        rw [Addr.add_lit, cell_heap hWg]
        have hjl := (List.getElem?_eq_some_iff.1 hj).1
        rw [hdl] at hjl
        rw [List.getElem?_drop, ← htk, List.getElem?_take, if_pos (by omega)] at hj
        simpa using hj)
      (by rw [hdl]; omega) (fun u hu => hx1 u (List.mem_of_mem_drop hu))
  have hcpA : ∀ (W : World), W.heap = (w.setRow g R1).heap → ∀ ty dc, (Builtin.copy_ #[39, 39] ty #[.slice (some ⟨g, i * 2, none⟩) (n + 1 - i) dc, .slice (some ⟨gv, 0, none⟩) 1 1]).run Tryd.prog W = .ok (goInt 1) (W.setRow g R2) := fun W hW ty dc => by
    rw [hR2]
    have hWg : W.heap[g]? = some (.cells R1 41 (0, 0)) := by rw [hW]; exact setRow_heap _ _ _ _ _ _ hg
    have hWv : W.heap[gv]? = some (.cells #[u0, u1] 41 (0, 0)) := by rw [hW, setRow_other _ _ _ _ hne]; exact hgv
    exact run_copy_rowK 2 W 39 39 ty 41 g (i * 2) (n + 1 - i) dc ⟨gv, 0, none⟩ 1 1 R1 41 1 [u0, u1] Tryd.underlying39 hsz hWg (by simp only [Nat.min_def]; split <;> omega) rfl
      (fun j v hj => by rw [Addr.add_lit, Nat.zero_add, cell_heap hWv]; simpa using hj)
      (by simp; omega) (fun u hu => by simp at hu; rcases hu with rfl | rfl <;> assumption)
  have n1 : ((i : Int) == (n : Int)) = false := by rw [beq_eq_false_iff_ne]; omega
  have n1n : (i == n) = false := by rw [beq_eq_false_iff_ne]; omega
  have n2 : decide ((c : Int) < (n : Int) + 1) = false := decide_eq_false (by omega)
  have n2n : decide (c < n + 1) = false := decide_eq_false (by omega)
  have n3 : (0 : Int) ≤ (i : Int) := by omega
  have n4 : (i : Int) ≤ (n : Int) := by omega
  have n5 : (i : Int) ≤ (c : Int) := by omega
  have n6 : ((i : Nat) : Int).toNat = i := by omega
  have n7 : ((i : Int) + 1).toNat = i + 1 := by omega
  have n8 : (i : Int) + 1 ≤ (n : Int) + 1 := by omega
  have n9 : (i : Int) ≤ (n : Int) + 1 := by omega
  have n10 : (0 : Int) ≤ (i : Int) + 1 := by omega
  have n11 : IntKind.i64.wrap ((i : Int) + 1) = (i : Int) + 1 := by rw [IntKind.wrap_i64]; omega
  have n12 : (0 : Int) ≤ (n : Int) + 1 := by omega
  have n13 : (n : Int) + 1 ≤ (c : Int) := by omega
  have n14 : ((n : Int) + 1).toNat = n + 1 := by omega
  have hci : ¬ (c = i) := by omega
  have hcim : ¬ (c = i + 1) := by omega
  clear hR1 hR2
  go_enter Tryd.func50, Tryd.ntmps50
  go_wp2_with (simp only [hov])
  go_region_law (refine step_copy_runI rfl _ _ 39 39 rfl (.slice (some ⟨g, (i + 1) * 2, none⟩) (n + 1 - (i + 1)) (c - (i + 1))) (.slice (some ⟨g, i * 2, none⟩) (n + 1 - i) (c - i)) (by simp [Act.eval, Act.put]) (by simp [Act.eval, Act.put]) (hcpB w.drew rfl _ _ _) ?_)
  go_upto_region 16 with fail
  iterate 13 go_step
  refine wpList_copy_runI _ rfl _ _ 39 39 rfl _ _ rfl rfl (hcpA (w.drew.setRow g R1) rfl _ _) ?_
  go_wp2
  go_ret
  refine ⟨_, rfl, ⟨?_, .inr ⟨g, c, R2, rfl, hbase, ?_, hroom, hc63, hR2l, hR2t⟩⟩, ⟨rfl, rfl, rfl, ?_, fun k hk hkg => ?_⟩, rfl⟩
  · simp only [List.length_append, List.length_take, List.length_drop, List.length_cons, List.length_nil]; omega
  · refine setRow_heap _ _ R1 _ _ _ ?_
    exact setRow_heap w.drew _ cur _ _ _ hg
  · rw [setRow_size, setRow_size]
    exact Nat.le_refl _
  · have hk2 : k ≠ g := fun e => hkg (by rw [e])
    rw [setRow_other _ _ _ _ hk2, setRow_other _ _ _ _ hk2]
    rfl
/-- slices.Insert of one element. -/
theorem insPr_any {base n i gv : Nat} {v : Value} {xs : List Value} {u0 u1 : Value} {w : World} (hown : w.ownsRow base 41 2 v n xs) (hx1 : ∀ u ∈ xs, u.oneCell' = true) (hi : i ≤ n) (hn : n ≤ 1000000) (hbase : base ≤ w.heap.size)
    (hgv : w.heap[gv]? = some (.cells #[u0, u1] 41 (0, 0))) (hne : v.ownBlock ≠ some gv) (h0 : u0.oneCell' = true) (h1 : u1.oneCell' = true) :
    Calls Tryd.prog 50 #[v, .int .i64 (i : Int), .slice (some ⟨gv, 0, none⟩) 1 1] w fun e w' => ∃ v', e = .returned v' ∧ w'.ownsRow base 41 2 v' (n + 1) (xs.take (i * 2) ++ [u0, u1] ++ xs.drop (i * 2)) ∧ w.grownBy w' v.ownBlock ∧ (v'.ownBlock = v.ownBlock ∨ v'.ownBlock = some w.heap.size) := by
  rcases Nat.lt_or_ge i n with hlt | hge
  · obtain ⟨g, c, hv⟩ := own_formS hown (by omega)
    subst hv
    rcases Nat.lt_or_ge c (n + 1) with hc | hc
    · refine (insPr_grow hown hx1 hlt hn hbase hgv h0 h1 hc).mono ?_
      rintro e w' ⟨v', he, hw, hg, hb⟩
      exact ⟨v', he, hw, ⟨hg.os, hg.tape, hg.output, hg.size, fun k hk _ => hg.block k hk (by simp)⟩, .inr hb⟩
    · refine (insPr_shift hown hx1 hlt hn hgv (fun e => hne (by rw [e]; rfl)) h0 h1 hc).mono ?_
      rintro e w' ⟨v', he, hw, hg, hb⟩
      exact ⟨v', he, hw, hg, .inl hb⟩
  · obtain rfl : i = n := by omega
    have hxl : xs.length = i * 2 := hown.1
    rw [List.take_of_length_le (by omega), List.drop_of_length_le (by omega), List.append_nil]
    exact insPr_end hown hn hbase hgv h0 h1
end Go.Proofs.YtpledhipdiephaaDoor
