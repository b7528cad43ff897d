/- slices.Delete of one pair; Store.Drop. -/
import Derived.Test.YtpledhipdiephaaDoorSt8
import Derived.Test.YtpledhipdiephaaDoorDt0
import Derived.Lib.AppendZerosOnto
import Derived.Lib.SliceRun
import Derived.BigRegion
import Derived.RegionTactic
import Derived.BigQuiet
import Derived.Deep.QuietTactic
import Derived.Deep.MidRow
import Derived.Deep.RegionLaw
import Derived.LoopTactic
import Derived.BigFrame
import Derived.OwnWalk
import Derived.OneCell
import Derived.Laws.OwnMore
import Derived.Laws.IdiomCopy
import Derived.Deep.RegionHeld
import Derived.WalkKit
import Derived.ProofKit
import Derived.Handy
import Derived.Below
import Derived.Lib.Hide
import Derived.IntWalk
import Derived.Outline
import Derived.WalkLawsBesides
import Derived.WalkSpells
namespace Go.Proofs.YtpledhipdiephaaDoor
open Go.RowKit
attribute [local go_sem] strV
set_option linter.unusedVariables false
set_option linter.unusedSimpArgs false
/-- A row of the call's own, behind an append in place. -/
theorem own_room {w : World} {B g n c sz i m : Nat} {e : TypeId} {xs news : List Value} (h : w.ownsRow B e sz (.slice (some ⟨g, 0, none⟩) n c) n xs) (hl : news.length = m * sz) (him : i + m ≤ n) :
    ∃ cur, w.heap[g]? = some (.cells cur e (0, 0)) ∧ i * sz + news.length ≤ cur.size ∧ (w.setRow g (cur.toList.take (i * sz) ++ news ++ cur.toList.drop (i * sz + news.length)).toArray).ownsRow B e sz (.slice (some ⟨g, 0, none⟩) (i + m) c) (i + m) (xs.take (i * sz) ++ news) := by
  have hx := h.1
  rcases h.2 with ⟨e0, _⟩ | ⟨g', cap', cur, e0, hb, hg, hn, hm, hs, ht⟩
  · cases e0
  · injection e0 with e1 _ e3
    injection e1 with e1
    injection e1 with e1
    subst e1; subst e3
    have h1 : (i + m) * sz ≤ n * sz := Nat.mul_le_mul_right _ him
    have h2 : n * sz ≤ c * sz := Nat.mul_le_mul_right _ hn
    have h3 : (i + m) * sz = i * sz + m * sz := Nat.add_mul _ _ _
    have h4 : cur.toList.length = c * sz := by simpa using hs
    refine ⟨cur, hg, by omega, by rw [List.length_append, List.length_take, hl]; omega, .inr ⟨g, c, _, rfl, hb, setRow_heap _ _ cur _ _ _ hg, by omega, hm, ?_, ?_⟩⟩
    · rw [List.size_toArray, List.length_append, List.length_append, List.length_take, List.length_drop, hl]; omega
    · rw [← ht]
      show List.take ((i + m) * sz) (cur.toList.take (i * sz) ++ news ++ cur.toList.drop (i * sz + news.length)) = _
      have h5 : (cur.toList.take (i * sz) ++ news).length = (i + m) * sz := by rw [List.length_append, List.length_take, hl]; omega
      rw [List.take_append_of_le_length (by omega), List.take_of_length_le (by omega), List.take_take, Nat.min_eq_left (by omega)]
theorem step_append_room {P : Program} {w : World} {ops : Array Oper} {o : Oper} {a : Act} {K : Act → World → Prop} {Q : Exit → Act → World → Prop} {E : Prop} (hgd : o.guard = none) (s x : Operand) (t : TypeId)
    (ho : o.op = .call { callee := .builtin .append, args := #[s, x], argTypes := #[t, t] }) (e : TypeId) (i : TypeInfo) (ht : P.underlying t = some (.slice e)) (hi : P.info? e = some i)
    (g n c : Nat) (cur : Array Value) (hg : w.heap[g]? = some (.cells cur e (0, 0))) (hs : a.eval s = .slice (some ⟨g, 0, none⟩) n c) (ad : Addr) (m cc : Nat) (news : List Value) (hx : a.eval x = .slice (some ad) m cc) (hl : news.length = m * i.size) (hnews : ∀ j u, news[j]? = some u → w.cell? (ad.add j) = some u) (h1 : ∀ u ∈ news, u.oneCell' = true)
    (hroom : n + m ≤ c) (hfit : n * i.size + news.length ≤ cur.size)
    (hK : K (a.put o.dst (.slice (some ⟨g, 0, none⟩) (n + m) c)) (w.setRow g (cur.toList.take (n * i.size) ++ news ++ cur.toList.drop (n * i.size + news.length)).toArray)) :
    if Region.wanted o (yielded ops a.tmps) = true then Oper.wp P o a w K Q else E := by
  have hw : Region.wanted o (yielded ops a.tmps) = true := by simp [Region.wanted, hgd]
  rw [if_pos hw]
  have hrun := run_append_room (P := P) w t o.type e i ht hi g n c cur hg ad m cc news hl hnews h1 hroom hfit
  unfold Oper.wp
  rw [List.append_assoc] at hK
  simp [execOp, ho, resolve, invoke, builtin, hs, hx, hrun, Result.andThen]
  exact hK
/-- clear of one pair. -/
theorem run_clear_pr (w : World) (ty : TypeId) (b off c : Nat) (hc : ∀ j, j < 2 → (w.cell? ⟨b, off + j, none⟩).isSome = true) (hf : ∀ j, j < 2 → w.frozen? ⟨b, off + j, none⟩ = false) :
    (Builtin.clear_ #[39] ty #[.slice (some ⟨b, off, none⟩) 1 c]).run Tryd.prog w = .ok (.tuple #[]) (w.setCells b off [.string ⟨#[]⟩, .string ⟨#[]⟩]) := by
  have hv : ∀ w, (zeroValue 41).run Tryd.prog w = .ok (.agg #[.string ⟨#[]⟩, .string ⟨#[]⟩]) w := fun w => by kernel_rfl
  have hzc : (Builtin.zeroCells (Value.agg #[.string ⟨#[]⟩, .string ⟨#[]⟩]).cells 1).toList = [.string ⟨#[]⟩, .string ⟨#[]⟩] := by kernel_rfl
  have hst := run_storeCells_cells (P := Tryd.prog) b off [.string ⟨#[]⟩, .string ⟨#[]⟩] 0 w (by simpa using hc) (by simpa using hf) (by intro v hv'; simp at hv'; subst hv'; rfl)
  simp only [Nat.add_zero] at hst
  simp [Builtin.clear_, run_underlying Tryd.underlying39, hv, hzc, hst]
theorem putL_out {α : Type} : ∀ (vs xs : List α) (k : Nat), xs.length ≤ k → putL xs k vs = xs
  | [], _, _, _ => rfl
  | v :: r, xs, k, h => by rw [putL, List.set_eq_of_length_le h]; exact putL_out r xs (k + 1) (by omega)
/-- A store's pairs without a key's. -/
def dropL (l : List Pr) (k : ByteArray) : List Pr := if foundL l k = true then l.take (placeL l k) ++ l.drop (placeL l k + 1) else l
theorem pr_take_flat (l : List Pr) (k : Nat) : (l.flatMap Pr.cells).take (k * 2) = (l.take k).flatMap Pr.cells := by
  induction l generalizing k with
  | nil => simp
  | cons x l ih =>
    cases k with
    | zero => simp
    | succ k =>
      rw [List.take_succ_cons, List.flatMap_cons, List.flatMap_cons, List.take_append, Pr.cells_len, List.take_of_length_le (by rw [Pr.cells_len]; omega), ← ih, Nat.succ_mul, Nat.add_sub_cancel]
theorem grown_setRowD (w : World) (g : Nat) (cs : Array Value) : w.grownBy (w.drew.setRow g cs) (some g) := by
  refine ⟨rfl, rfl, rfl, ?_, fun k hk hne => ?_⟩
  · show w.heap.size ≤ (w.heap.modify g _).size
    rw [Array.size_modify]; exact Nat.le_refl _
  · show (w.heap.modify g _)[k]? = _
    rw [Array.getElem?_modify, if_neg (fun e => hne (by rw [e]))]
theorem frozen9 {w : World} {b : Nat} {c : Array Value} {e : TypeId} (h : w.heap[b]? = some (.cells c e (0, 0))) (k : Nat) : w.frozen? ⟨b, k, none⟩ = false := by simp [World.frozen?, h]
theorem own_cells9 {w : World} {B g k c n : Nat} {e : TypeId} {xs : List Value} (h : w.ownsRow B e 2 (.slice (some ⟨g, 0, none⟩) k c) k xs) (hn : n ≤ c) : ∃ _ : Nat, ∃ R, w.heap[g]? = some (.cells R e (0, 0)) ∧ n * 2 ≤ R.size := by
  rcases h.2 with ⟨e0, _⟩ | ⟨g', cap', cur, e0, hb, hg, hk, hm, hs, ht⟩
  · cases e0
  · injection e0 with e1 _ e3
    injection e1 with e1
    injection e1 with e1
    subst e1; subst e3
    exact ⟨0, cur, hg, by omega⟩
set_option maxRecDepth 100000 in
set_option maxHeartbeats 6400000 in
theorem delPr_any {B g n c i j : Nat} {l : List Pr} {w : World} (hown : w.ownsRow B 41 2 (.slice (some ⟨g, 0, none⟩) n c) n (l.flatMap Pr.cells)) (hn : l.length = n) (hi : i < n) (hj : j = i + 1) (hn6 : n ≤ 1000000) (hcm : c ≤ 9223372036854775807) :
    Calls Tryd.prog 51 #[.slice (some ⟨g, 0, none⟩) n c, .int .i64 (i : Int), .int .i64 (j : Int)] w fun e w' => e = .returned (.slice (some ⟨g, 0, none⟩) (n - 1) c) ∧ w'.ownsRow B 41 2 (.slice (some ⟨g, 0, none⟩) (n - 1) c) (n - 1) ((l.take i ++ l.drop j).flatMap Pr.cells) ∧ w.grownBy w' (some g) := by
  obtain ⟨i0, hi0, hz0, hzs, hzb⟩ := info_parts Tryd.infoPr
  obtain ⟨_, _, e9, hr, hnc, _⟩ := own_sliceN hown
  cases e9
  have n0 : (0 : Int) ≤ (i : Int) := by omega
  have n1 : (i : Int) ≤ (j : Int) := by omega
  have n2 : (j : Int) ≤ (n : Int) := by omega
  have n3 : (n : Int) ≤ (c : Int) := by omega
  have n4 : (i : Int) ≤ (c : Int) := by omega
  have n5 : (j : Int) ≤ (c : Int) := by omega
  have n6 : (0 : Int) ≤ (j : Int) := by omega
  have n7 : (i : Int) ≤ (n : Int) := by omega
  have t0 : ((i : Nat) : Int).toNat = i := by omega
  have t1 : ((j : Nat) : Int).toNat = j := by omega
  have t2 : ((n : Nat) : Int).toNat = n := by omega
  have d0 : ((i : Int) == (j : Int)) = false := by rw [beq_eq_false_iff_ne]; omega
  have hci : c ≠ i := by omega
  obtain ⟨n9, hn9⟩ : ∃ m, n - 1 = m := ⟨_, rfl⟩
  have s0 : (0 : Int) ≤ (n9 : Int) := by omega
  have s1 : (n9 : Int) ≤ (n : Int) := by omega
  have s2 : ((n9 : Nat) : Int).toNat = n9 := by omega
  have s3 : (n9 : Int) ≤ (c : Int) := by omega
  have s4 : c ≠ n9 := by omega
  have s5 : n - n9 = 1 := by omega
  rw [hn9]
  have HIF := Lib.hid (show (l.take i ++ l.drop j).flatMap Pr.cells = (l.flatMap Pr.cells).take (i * 2) ++ (l.drop j).flatMap Pr.cells by rw [List.flatMap_append, pr_take_flat])
  have HDL : ((l.drop j).flatMap Pr.cells).length = (n - j) * 2 := by rw [flat_length Pr.cells 2 Pr.cells_len, List.length_drop, hn]
  have HJ := Lib.hid hj
  have hlj : i + (n - j) = n9 := by omega
  have HLJ := Lib.hid hlj
  have HNL := Lib.hid hn
  have HN9 := Lib.hid hn9
  clear hj hlj hn hn9
  go_enter Tryd.func51, Tryd.ntmps51
  go_upto_region 5 with fail
  by_cases hcj : c = j
  · have hjn : j = n := by omega
    have HM9 := Lib.hid (show i + 0 = n9 by have := HLJ.out; omega)
    have HDZ := Lib.hid (show (l.drop j).flatMap Pr.cells = [] by rw [List.drop_of_length_le (by rw [HNL.out]; omega)]; rfl)
    clear HLJ HDL
    subst hcj
    subst hjn
    refine wp_region_any (by kernel_rfl) ?_
    change wpAny _ _ _ _ _ _ _ (World.drew _)
    refine wpAny_take (i := 0) (v := .slice (some ⟨g, 0, none⟩) c c) rfl (by kernel_rfl) (by kernel_rfl) (by kernel_rfl) (fun _ _ _ h => h) (Or.inl ⟨by rfl, fun w9 => by (go_simp; try with_reducible rfl)⟩) ?_
    change wpAny _ _ _ _ _ _ (Act.put _ (some 20) _) _; dsimp only [Act.put]; simp only [List.setIfInBounds_toArray, List.set_cons_succ, List.set_cons_zero]
    refine wpAny_take (i := 1) (v := .int .i64 (i : Int)) rfl (by kernel_rfl) (by kernel_rfl) (by kernel_rfl) (fun _ _ _ h => h) (Or.inl ⟨by rfl, fun w9 => by (go_simp; try with_reducible rfl)⟩) ?_
    change wpAny _ _ _ _ _ _ (Act.put _ (some 21) _) _; dsimp only [Act.put]; simp only [List.setIfInBounds_toArray, List.set_cons_succ, List.set_cons_zero]
    refine wpAny_take (i := 2) (v := .slice (some ⟨g, 0, none⟩) i c) rfl (by kernel_rfl) (by kernel_rfl) (by kernel_rfl) (fun _ _ _ h => h) (Or.inl ⟨by rfl, fun w9 => by (go_simp; try with_reducible rfl)⟩) ?_
    change wpAny _ _ _ _ _ _ (Act.put _ (some 22) _) _; dsimp only [Act.put]; simp only [List.setIfInBounds_toArray, List.set_cons_succ, List.set_cons_zero]
    refine wpAny_take (i := 3) (v := .slice (some ⟨g, 0, none⟩) c c) rfl (by kernel_rfl) (by kernel_rfl) (by kernel_rfl) (fun _ _ _ h => h) (Or.inl ⟨by rfl, fun w9 => by (go_simp; try with_reducible rfl)⟩) ?_
    change wpAny _ _ _ _ _ _ (Act.put _ (some 23) _) _; dsimp only [Act.put]; simp only [List.setIfInBounds_toArray, List.set_cons_succ, List.set_cons_zero]
    refine wpAny_take (i := 4) (v := .int .i64 (c : Int)) rfl (by kernel_rfl) (by kernel_rfl) (by kernel_rfl) (fun _ _ _ h => h) (Or.inl ⟨by rfl, fun w9 => by (go_simp; try with_reducible rfl)⟩) ?_
    change wpAny _ _ _ _ _ _ (Act.put _ (some 24) _) _; dsimp only [Act.put]; simp only [List.setIfInBounds_toArray, List.set_cons_succ, List.set_cons_zero]
    refine wpAny_take (i := 5) (v := .slice (some ⟨g, 0, none⟩) (0) (0)) rfl (by kernel_rfl) (by kernel_rfl) (by kernel_rfl) (fun _ _ _ h => h) (Or.inl ⟨by rfl, fun w9 => by (go_simp; try with_reducible rfl)⟩) ?_
    change wpAny _ _ _ _ _ _ (Act.put _ (some 25) _) _; dsimp only [Act.put]; simp only [List.setIfInBounds_toArray, List.set_cons_succ, List.set_cons_zero]
    obtain ⟨cur, hcur, hsz, hown5⟩ := own_room (i := i) (m := 0) (news := ([] : List Value)) hown (by simp) (by omega)
    refine wpAny_ready (rs := [6]) (by kernel_rfl) (by simp) ?_
    refine AllReady.cons rfl (fun K hK => ?_) AllReady.nil
    refine step_append_room rfl (.tmp 22) (.tmp 25) 39 rfl 41 i0 Tryd.underlying39 hi0 g i c cur hcur (by first | rfl | simp [Act.eval, Act.put]) ⟨g, 0, none⟩ (0) (0) (([] : List Value)) (by first | rfl | simp [Act.eval, Act.put]) (by rw [hzs]; exact (by simp)) (fun q u hq => (by cases hq)) (fun u hu => (by cases hu)) (by omega) (by rw [hzs]; exact hsz) ?_
    rw [hzs]
    refine hK _ _ ?_
    clear hK K
    change wpAny _ _ _ _ _ _ (Act.put _ (some 26) _) _; dsimp only [Act.put]; simp only [List.setIfInBounds_toArray, List.set_cons_succ, List.set_cons_zero]
    have hgr5 : w.grownBy (w.drew.setRow g (cur.toList.take (i * 2) ++ (([] : List Value)) ++ cur.toList.drop (i * 2 + (([] : List Value)).length)).toArray) (some g) := grown_setRowD _ _ _
    have hown5 : (w.drew.setRow g (cur.toList.take (i * 2) ++ (([] : List Value)) ++ cur.toList.drop (i * 2 + (([] : List Value)).length)).toArray).ownsRow B 41 2 (.slice (some ⟨g, 0, none⟩) (i + (0)) c) (i + (0)) ((l.flatMap Pr.cells).take (i * 2) ++ (([] : List Value))) := hown5
    generalize w.drew.setRow g (cur.toList.take (i * 2) ++ (([] : List Value)) ++ cur.toList.drop (i * 2 + (([] : List Value)).length)).toArray = w5 at hown5 hgr5 ⊢
    refine wpAny_take (i := 7) (v := .slice (some ⟨g, 0, none⟩) (i + (0)) c) rfl (by kernel_rfl) (by kernel_rfl) (by kernel_rfl) (fun _ _ _ h => h) (Or.inl ⟨by rfl, fun w9 => by (go_simp; try with_reducible rfl)⟩) ?_
    change wpAny _ _ _ _ _ _ (Act.put _ (some 0) _) _; dsimp only [Act.put]; simp only [List.setIfInBounds_toArray, List.set_cons_succ, List.set_cons_zero]
    refine wpAny_done (by kernel_rfl) ?_ _
    rw [HM9.out] at hown5
    simp only [HM9.out]
    obtain ⟨_, R, hR, hRs⟩ := own_cells9 (n := c) hown5 hnc
    have hcl := run_clear_pr w5 0 g (n9 * 2) 1 (fun q hq => by rw [cell_heap hR, Array.getElem?_eq_getElem (by omega)]; rfl) (fun q hq => frozen9 hR _)
    have hown6 := own_puts [Value.string ⟨#[]⟩, Value.string ⟨#[]⟩] hown5 (n9 * 2)
    have hgr6 := grown_puts g [Value.string ⟨#[]⟩, Value.string ⟨#[]⟩] w5 (n9 * 2)
    rw [putL_out _ _ _ (by rw [hown5.1]; exact Nat.le_refl _)] at hown6
    go_wp2_with fail
    go_ret
    exact ⟨by first | rfl | simp, by rw [HIF.out, HDZ.out]; exact hown6, grown_trD hgr5 hgr6⟩
  · have HM9 := HLJ
    have him9 : i + (n - j) ≤ n := by rw [HLJ.out]; omega
    have hroom9 : i + (n - j) ≤ c := by omega
    have hjl : j ≤ l.length := by rw [HNL.out]; omega
    refine wp_region_any (by kernel_rfl) ?_
    change wpAny _ _ _ _ _ _ _ (World.drew _)
    refine wpAny_take (i := 0) (v := .slice (some ⟨g, 0, none⟩) n c) rfl (by kernel_rfl) (by kernel_rfl) (by kernel_rfl) (fun _ _ _ h => h) (Or.inl ⟨by rfl, fun w9 => by (go_simp; try with_reducible rfl)⟩) ?_
    change wpAny _ _ _ _ _ _ (Act.put _ (some 20) _) _; dsimp only [Act.put]; simp only [List.setIfInBounds_toArray, List.set_cons_succ, List.set_cons_zero]
    refine wpAny_take (i := 1) (v := .int .i64 (i : Int)) rfl (by kernel_rfl) (by kernel_rfl) (by kernel_rfl) (fun _ _ _ h => h) (Or.inl ⟨by rfl, fun w9 => by (go_simp; try with_reducible rfl)⟩) ?_
    change wpAny _ _ _ _ _ _ (Act.put _ (some 21) _) _; dsimp only [Act.put]; simp only [List.setIfInBounds_toArray, List.set_cons_succ, List.set_cons_zero]
    refine wpAny_take (i := 2) (v := .slice (some ⟨g, 0, none⟩) i c) rfl (by kernel_rfl) (by kernel_rfl) (by kernel_rfl) (fun _ _ _ h => h) (Or.inl ⟨by rfl, fun w9 => by (go_simp; try with_reducible rfl)⟩) ?_
    change wpAny _ _ _ _ _ _ (Act.put _ (some 22) _) _; dsimp only [Act.put]; simp only [List.setIfInBounds_toArray, List.set_cons_succ, List.set_cons_zero]
    refine wpAny_take (i := 3) (v := .slice (some ⟨g, 0, none⟩) n c) rfl (by kernel_rfl) (by kernel_rfl) (by kernel_rfl) (fun _ _ _ h => h) (Or.inl ⟨by rfl, fun w9 => by (go_simp; try with_reducible rfl)⟩) ?_
    change wpAny _ _ _ _ _ _ (Act.put _ (some 23) _) _; dsimp only [Act.put]; simp only [List.setIfInBounds_toArray, List.set_cons_succ, List.set_cons_zero]
    refine wpAny_take (i := 4) (v := .int .i64 (j : Int)) rfl (by kernel_rfl) (by kernel_rfl) (by kernel_rfl) (fun _ _ _ h => h) (Or.inl ⟨by rfl, fun w9 => by (go_simp; try with_reducible rfl)⟩) ?_
    change wpAny _ _ _ _ _ _ (Act.put _ (some 24) _) _; dsimp only [Act.put]; simp only [List.setIfInBounds_toArray, List.set_cons_succ, List.set_cons_zero]
    refine wpAny_take (i := 5) (v := .slice (some ⟨g, j * 2, none⟩) (n - j) (c - j)) rfl (by kernel_rfl) (by kernel_rfl) (by kernel_rfl) (fun _ _ _ h => h) (Or.inl ⟨by rfl, fun w9 => by (go_simp; try with_reducible rfl)⟩) ?_
    change wpAny _ _ _ _ _ _ (Act.put _ (some 25) _) _; dsimp only [Act.put]; simp only [List.setIfInBounds_toArray, List.set_cons_succ, List.set_cons_zero]
    obtain ⟨cur, hcur, hsz, hown5⟩ := own_room (i := i) (m := n - j) (news := (l.drop j).flatMap Pr.cells) hown HDL (by omega)
    refine wpAny_ready (rs := [6]) (by kernel_rfl) (by simp) ?_
    refine AllReady.cons rfl (fun K hK => ?_) AllReady.nil
    refine step_append_room rfl (.tmp 22) (.tmp 25) 39 rfl 41 i0 Tryd.underlying39 hi0 g i c cur hcur (by first | rfl | simp [Act.eval, Act.put]) ⟨g, j * 2, none⟩ (n - j) (c - j) ((l.drop j).flatMap Pr.cells) (by first | rfl | simp [Act.eval, Act.put]) (by rw [hzs]; exact HDL) (pr_drop_at (b := g) (off := 0) hr (k := j) hjl (fun _ => by rw [Nat.zero_add]) ⟨g, j * 2, none⟩ rfl) (pr_cells_one _) (by omega) (by rw [hzs]; exact hsz) ?_
    rw [hzs]
    refine hK _ _ ?_
    clear hK K
    change wpAny _ _ _ _ _ _ (Act.put _ (some 26) _) _; dsimp only [Act.put]; simp only [List.setIfInBounds_toArray, List.set_cons_succ, List.set_cons_zero]
    have hgr5 : w.grownBy (w.drew.setRow g (cur.toList.take (i * 2) ++ ((l.drop j).flatMap Pr.cells) ++ cur.toList.drop (i * 2 + ((l.drop j).flatMap Pr.cells).length)).toArray) (some g) := grown_setRowD _ _ _
    have hown5 : (w.drew.setRow g (cur.toList.take (i * 2) ++ ((l.drop j).flatMap Pr.cells) ++ cur.toList.drop (i * 2 + ((l.drop j).flatMap Pr.cells).length)).toArray).ownsRow B 41 2 (.slice (some ⟨g, 0, none⟩) (i + (n - j)) c) (i + (n - j)) ((l.flatMap Pr.cells).take (i * 2) ++ ((l.drop j).flatMap Pr.cells)) := hown5
    generalize w.drew.setRow g (cur.toList.take (i * 2) ++ ((l.drop j).flatMap Pr.cells) ++ cur.toList.drop (i * 2 + ((l.drop j).flatMap Pr.cells).length)).toArray = w5 at hown5 hgr5 ⊢
    refine wpAny_take (i := 7) (v := .slice (some ⟨g, 0, none⟩) (i + (n - j)) c) rfl (by kernel_rfl) (by kernel_rfl) (by kernel_rfl) (fun _ _ _ h => h) (Or.inl ⟨by rfl, fun w9 => by (go_simp; try with_reducible rfl)⟩) ?_
    change wpAny _ _ _ _ _ _ (Act.put _ (some 0) _) _; dsimp only [Act.put]; simp only [List.setIfInBounds_toArray, List.set_cons_succ, List.set_cons_zero]
    refine wpAny_done (by kernel_rfl) ?_ _
    rw [HM9.out] at hown5
    simp only [HM9.out]
    obtain ⟨_, R, hR, hRs⟩ := own_cells9 (n := n) hown5 hnc
    have hcl := run_clear_pr w5 0 g (n9 * 2) (c - n9) (fun q hq => by rw [cell_heap hR, Array.getElem?_eq_getElem (by omega)]; rfl) (fun q hq => frozen9 hR _)
    have hown6 := own_puts [Value.string ⟨#[]⟩, Value.string ⟨#[]⟩] hown5 (n9 * 2)
    have hgr6 := grown_puts g [Value.string ⟨#[]⟩, Value.string ⟨#[]⟩] w5 (n9 * 2)
    rw [putL_out _ _ _ (by rw [hown5.1]; exact Nat.le_refl _)] at hown6
    go_wp2_with fail
    go_ret
    exact ⟨by first | rfl | simp, by rw [HIF.out]; exact hown6, grown_trD hgr5 hgr6⟩
end Go.Proofs.YtpledhipdiephaaDoor
