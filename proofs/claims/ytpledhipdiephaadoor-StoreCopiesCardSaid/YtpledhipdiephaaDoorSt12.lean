/- Stores that were copied: Set, Drop, Get, Len, Root, Pairs, Copy. -/
import Derived.Test.YtpledhipdiephaaDoorSoM
import Derived.BigRegion
import Derived.RegionTactic
import Derived.BigQuiet
import Derived.Deep.QuietTactic
import Derived.Deep.MidRow
import Derived.Deep.RegionLaw
import Derived.LoopTactic
import Derived.BigFrame
import Derived.OwnWalk
import Derived.OneCell
import Derived.Laws.OwnMore
import Derived.Lib.SliceRun
import Derived.WalkKit
import Derived.ProofKit
import Derived.Handy
import Derived.Below
import Derived.Lib.Hide
import Derived.IntWalk
import Derived.Outline
import Derived.WalkLawsBesides
import Derived.WalkSpells
namespace Go.Proofs.YtpledhipdiephaaDoor
open Go.RowKit
attribute [local go_sem] strV
set_option linter.unusedVariables false
set_option linter.unusedSimpArgs false
/-- A store at block g whose pairs lie in block r, of the law's own above B. -/
def StC (w : World) (B g : Nat) (r : Option Nat) (l : List Pr) : Prop := goodL l = true ∧ B ≤ g ∧ ∃ a cap, w.heap[g]? = some (.cells #[.slice a l.length cap] 93 (0, 0)) ∧ w.ownsRow B 41 2 (.slice a l.length cap) l.length (l.flatMap Pr.cells) ∧ (Value.slice a l.length cap).ownBlock = r
theorem StC.lt {w : World} {B g : Nat} {r : Option Nat} {l : List Pr} (h : StC w B g r l) : g < w.heap.size := by
  obtain ⟨_, _, a, cap, h2, _⟩ := h
  exact row_lt h2
theorem StC.kept {w w' : World} {B g : Nat} {r : Option Nat} {l : List Pr} (h : StC w B g r l) (hb : Below w.heap.size w w') : StC w' B g r l := by
  obtain ⟨h1, h0, a, cap, h2, h3, h4⟩ := h
  exact ⟨h1, h0, a, cap, cells_of h2 hb (row_lt h2), own_keptH h3 hb, h4⟩
theorem StB.cop {w : World} {B g : Nat} {r : Option Nat} {l : List Pr} (h : StB w g r l) (hB : B ≤ g) : StC w B g r l := by
  obtain ⟨h1, a, cap, h2, h3, h4⟩ := h
  exact ⟨h1, hB, a, cap, h2, own_lower h3 hB, h4⟩
theorem StC.new {w : World} {B g : Nat} (hB : B ≤ g) (h : w.heap[g]? = some (.cells #[.slice none 0 0] 93 (0, 0))) : StC w B g none [] := (StB.new h).cop hB
theorem StC.row {w : World} {B g : Nat} {r : Option Nat} {l : List Pr} (h : StC w B g r l) : ∀ k, r = some k → B ≤ k ∧ k < w.heap.size ∧ ∃ R, w.heap[k]? = some (.cells R 41 (0, 0)) := by
  intro k hk
  obtain ⟨h1, h0, a, cap, h2, h3, h4⟩ := h
  subst hk
  rcases h3.2 with ⟨e0, _⟩ | ⟨g9, cap9, cur, e0, hb, hg9, _⟩
  · rw [e0] at h4; cases h4
  · rw [e0] at h4
    have e1 : g9 = k := by simpa [Value.ownBlock] using h4
    subst e1
    exact ⟨hb, row_lt hg9, cur, hg9⟩
theorem StC.other {w w' : World} {B g g' : Nat} {r r' : Option Nat} {l : List Pr} (h : StC w B g r l) (hf : Fr w w' g' r') (h1 : g ≠ g') (h2 : r' ≠ some g) (h3 : r ≠ some g') (h4 : r = none ∨ r ≠ r') : StC w' B g r l := by
  obtain ⟨q1, q0, a, cap, q2, q3, q4⟩ := h
  refine ⟨q1, q0, a, cap, (hf.block g (row_lt q2) h1 (fun e => h2 e.symm)).trans q2, ?_, q4⟩
  refine ⟨q3.1, ?_⟩
  rcases q3.2 with q | ⟨b, c, cur, e0, hb, hh, rest⟩
  · exact .inl q
  · have e1 : r = some b := by rw [← q4, e0]; rfl
    refine .inr ⟨b, c, cur, e0, hb, ?_, rest⟩
    refine (hf.block b (row_lt hh) (fun e => h3 (by rw [e1, e])) (fun e => ?_)).trans hh
    rcases h4 with h4 | h4
    · rw [e1] at h4; cases h4
    · exact h4 (by rw [e1]; exact e)
theorem getC_any (B g : Nat) (r : Option Nat) (l : List Pr) (key : ByteArray) (w : World) (h : StC w B g r l) (hn6 : l.length ≤ 100000) :
    Calls Tryd.prog 14 #[.pointer (some ⟨g, 0, none⟩), .string key] w fun e w' => e = .returned (.tuple #[.string (getV l key), .bool (foundL l key)]) ∧ Below w.heap.size w w' := by
  obtain ⟨hgd, _, a, cap, hg, hown, _⟩ := h
  obtain ⟨_, _, e9, hr, hcap, hcm, hnone⟩ := own_sliceN hown
  cases e9
  exact get_any g a l.length cap l key w hg hr rfl hcap hcm (by omega) (goodL_sorted hgd)
theorem wpList_append_own9 {P : Program} {w : World} {ops : Array Oper} {rest : List Oper} {o : Oper} {a : Act} {Q : Exit → Act → World → Prop} (hgd : o.guard = none) (s x : Operand) (t : TypeId)
    (ho : o.op = .call { callee := .builtin .append, args := #[s, x], argTypes := #[t, t] })
    (base : Nat) (e : TypeId) (i : TypeInfo) (z : Value) (size bytes : Nat) (ht : P.underlying t = some (.slice e)) (hi : P.info? e = some i) (hz : i.zero = some z)
    (hsize : i.size = size) (hby : i.bytes = bytes) (hzs : z.cells.size = size) (hsz : 0 < size)
    (v : Value) (n : Nat) (xs : List Value) (hs : a.eval s = v) (hown : w.ownsRow base e size v n xs)
    (ao : Option Addr) (m c : Nat) (news : List Value) (hx : a.eval x = .slice ao m c) (hnone : ao = none → m = 0 ∧ c = 0) (hl : news.length = m * size) (hnews : ∀ ad, ao = some ad → ∀ j u, news[j]? = some u → w.cell? (ad.add j) = some u) (h1 : ∀ u ∈ news, u.oneCell' = true)
    (h63 : n + m ≤ maxLen) (hbytes : (n + m) * bytes ≤ 140737488355328) (hbase : base ≤ w.heap.size)
    (h : ∀ v' w', w'.ownsRow base e size v' (n + m) (xs ++ news) → w.grownBy w' v.ownBlock → wpList P ops Q rest (a.put o.dst v') w') : wpList P ops Q (o :: rest) a w :=
  wpList_plain hgd fun K hK => by
    have hw : Region.wanted o (yielded ops a.tmps) = true := by simp [Region.wanted, hgd]
    have h9 := step_append_ownA (K := K) (Q := Q) (E := False) (ops := ops) hgd s x t ho base e i z size bytes ht hi hz hsize hby hzs hsz v n xs hs hown ao m c news hx hnone hl hnews h1 h63 hbytes hbase (fun v' w' q1 q2 => hK _ _ (h v' w' q1 q2))
    rw [if_pos hw] at h9
    exact h9
set_option maxRecDepth 100000 in
set_option maxHeartbeats 3200000 in
theorem clonePr_any (a : Option Addr) (n cap : Nat) (l : List Pr) (w : World) (hr : RowAt w a (l.flatMap Pr.cells)) (hn : l.length = n) (hm : n ≤ 1000000) (ha : a = none → n = 0 ∧ cap = 0) :
    Calls Tryd.prog 53 #[.slice a n cap] w fun e w' => ∃ v, e = .returned v ∧ w'.ownsRow w.heap.size 41 2 v l.length (l.flatMap Pr.cells) ∧ Below w.heap.size w w' := by
  have q22 : ∀ (w : World) (a : Option Addr) (n c n' c' : Nat), (binOp .eql 39 (.slice a n c) (.slice none n' c')).run Tryd.prog w = .ok (.bool a.isNone) w := fun w a n c n' c' => Lib.run_eql_slice_nil w _ _ a n c n' c' Tryd.underlying39
  obtain ⟨iR, hiR, hzR, hsR, hbR⟩ := info_parts Tryd.infoPr
  have HN := Lib.hid hn
  have HL := Lib.hid (show (l.flatMap Pr.cells).length = n * 2 by rw [pr_flat_len, hn])
  clear hn
  cases a with
  | none =>
    obtain ⟨rfl, rfl⟩ := ha rfl
    have hnil : l = [] := List.eq_nil_of_length_eq_zero HN.out
    subst hnil
    go_enter Tryd.func53, Tryd.ntmps53
    go_wp2
    go_ret
    exact ⟨_, rfl, World.ownsRow_nil _ _ _ _, Below.refl _ _⟩
  | some ad =>
    have hn0 : ∀ W : World, (W.alloc (.cells #[] 41)).ownsRow W.heap.size 41 2 (.slice (some ⟨W.heap.size, 0, none⟩) 0 0) 0 [] := fun W => ⟨rfl, .inr ⟨W.heap.size, 0, #[], rfl, Nat.le_refl _, heap_push _ _ _, Nat.le_refl _, Nat.zero_le _, rfl, rfl⟩⟩
    have hnew : ∀ ad9, some ad = some ad9 → ∀ j u, (l.flatMap Pr.cells)[j]? = some u → (w.alloc (.cells #[] 41)).cell? (ad9.add j) = some u := fun ad9 e9 j u hu => by
      have hj := (List.getElem?_eq_some_iff.1 hu).1
      rcases hr.below (Below.alloc (Below.refl _ _) (Nat.le_refl _) (.cells #[] 41)) with h9 | ⟨b, off, e2, _, hc⟩
      · rw [h9] at hj; simp at hj
      · cases e9
        cases e2
        rw [Addr.add_lit, hc j hj]; exact hu
    go_enter Tryd.func53, Tryd.ntmps53
    go_wp2_with (at_builtin; refine wpList_append_own9 rfl (.tmp 5) (.tmp 6) 39 rfl w.heap.size 41 iR (.agg #[.string ⟨#[]⟩, .string ⟨#[]⟩]) 2 32 Tryd.underlying39 hiR hzR hsR hbR rfl (by decide) _ _ _ rfl (hn0 w) (some ad) n cap (l.flatMap Pr.cells) rfl (fun h => by cases h) HL.out hnew (pr_cells_one l) (by unfold maxLen; omega) (by omega) (by simp) ?_; intro v5 w5 hown5 hgr5)
    go_ret
    exact ⟨_, rfl, by rw [HN.out]; simpa using hown5, (Below.alloc (Below.refl _ _) (Nat.le_refl _) _).trans ((below_grown (hn0 w) hgr5 (by simp)).mono (Nat.le_refl _))⟩
set_option maxRecDepth 100000 in
set_option maxHeartbeats 6400000 in
theorem setC_any (B g : Nat) (r : Option Nat) (l : List Pr) (key val : ByteArray) (w : World) (h : StC w B g r l) (hn6 : l.length ≤ 100000) :
    Calls Tryd.prog 13 #[.pointer (some ⟨g, 0, none⟩), .string key, .string val] w fun e w' => e = .returned (.int .i64 (setE key val)) ∧ ∃ r', StC w' B g r' (setS l key val) ∧ Fr w w' g r ∧ (r' = r ∨ ∃ k, r' = some k ∧ w.heap.size ≤ k) := by
  have hgl := h.lt
  obtain ⟨hgd, hBg, a, cap, hg, hown, hrb⟩ := h
  obtain ⟨a9, cap9, hv9, hr, hcap, hcm, hnone⟩ := own_sliceN hown
  simp only [Value.slice.injEq, true_and] at hv9
  obtain ⟨rfl, rfl⟩ := hv9
  obtain ⟨n, hn⟩ : ∃ n, l.length = n := ⟨_, rfl⟩
  rw [hn] at hg hown hcap hn6 hrb
  have hso := goodL_sorted hgd
  unfold maxLen at hcm
  have hw1 : Below w.heap.size w (w.alloc (.cells #[.string key, .string val] 41)) := (Below.refl _ _).alloc (Nat.le_refl _) _
  have hw2 : Below w.heap.size w ((w.alloc (.cells #[.string key, .string val] 41)).alloc (.cells #[.string key, .string val] 41)) := al2_below w _ _
  have hrow2 : RowAt ((w.alloc (.cells #[.string key, .string val] 41)).alloc (.cells #[.string key, .string val] 41)) (some ⟨w.heap.size + 1, 0, none⟩) ([(⟨key, val⟩ : Pr)].flatMap Pr.cells) := by
    have h1 := row_newI (w.alloc (.cells #[.string key, .string val] 41)) #[.string key, .string val] 41
    rw [show (w.alloc (.cells #[.string key, .string val] 41)).heap.size = w.heap.size + 1 by simp] at h1
    exact h1
  have CG := goodPr_any (some ⟨w.heap.size + 1, 0, none⟩) 1 1 [⟨key, val⟩] _ hrow2 rfl (Nat.le_refl _) (by unfold maxLen; omega)
  rw [good_one] at CG
  simp only [] at CG
  obtain ⟨fit, hfit⟩ : ∃ b, fitsB key val = b := ⟨_, rfl⟩
  have HS : setS l key val = if fit = true then setL l key val else l := by unfold setS riseStep; rw [hfit]
  have HE : setE key val = if fit = true then 0 else 1 := by unfold setE; rw [hfit]
  rw [hfit] at CG
  rw [HS, HE]
  have p0 : (w.alloc (.cells #[.string key, .string val] 41)).cell? ⟨w.heap.size, 0, none⟩ = some (.string key) := cell_heap (heap_push w _ _) 0
  have p1 : (w.alloc (.cells #[.string key, .string val] 41)).cell? ⟨w.heap.size, 1, none⟩ = some (.string val) := cell_heap (heap_push w _ _) 1
  have hp2 : ((w.alloc (.cells #[.string key, .string val] 41)).alloc (.cells #[.string key, .string val] 41)).heap[w.heap.size]? = some (.cells #[.string key, .string val] 41 (0, 0)) := al2_0 w _ _
  have e1 : (w.alloc (.cells #[.string key, .string val] 41)).heap.size = w.heap.size + 1 := by simp
  have HN := Lib.hid hn
  clear HS HE hn
  cases fit
  · simp only [Bool.false_eq_true, if_false]
    clear hso
    go_enter Tryd.func13, Tryd.ntmps13
    go_wp2_with (go_at_call 48; refine CG.mono ?_; rintro e w3 ⟨rfl, hb3⟩)
    go_ret
    have hb := hw2.trans (hb3.mono hw2.size)
    exact ⟨by first | rfl | simp, r, StC.kept ⟨hgd, hBg, a, cap, by rw [HN.out]; exact hg, by rw [HN.out]; exact hown, by rw [HN.out]; exact hrb⟩ hb, Fr.of_below hb, .inl rfl⟩
  simp only [if_true]
  have CF := fun W (hb : Below w.heap.size w W) => find_any g a n cap l key W (cells_of hg hb hgl) (hr.below hb) HN.out hcap (by unfold maxLen; omega) (by omega) hso
  have hgd' := setL_good hgd hfit
  have hfl : foundL l key = true → placeL l key < l.length := fun h => (found_at h).1
  have hpl : placeL l key ≤ l.length := List.findIdx_le_length
  have HSF := @set_found l key val
  have HIF : foundL l key = false → setL l key val = l.take (placeL l key) ++ [⟨key, val⟩] ++ l.drop (placeL l key) := fun h => by unfold setL; rw [h]; simp
  obtain ⟨R, hR⟩ : ∃ R, setL l key val = R := ⟨_, rfl⟩
  rw [hR] at hgd' HSF HIF ⊢
  obtain ⟨k, hk⟩ : ∃ k, placeL l key = k := ⟨_, rfl⟩
  obtain ⟨fd, hfd⟩ : ∃ f, foundL l key = f := ⟨_, rfl⟩
  rw [hk] at hpl
  rw [hk, hfd] at hfl
  rw [hk, hfd] at HSF HIF
  simp only [hk, hfd] at CF
  rw [HN.out] at hpl hfl
  clear hk hfd hR hso hfit
  have n0 : (0 : Int) ≤ (k : Int) := by omega
  have n2 : ((k : Nat) : Int).toNat = k := by omega
  cases fd
  rotate_left
  · have hkn := hfl rfl
    have n1 : (k : Int) < (n : Int) := by omega
    have hRR := HSF rfl
    clear HSF HIF hfl
    obtain ⟨gr, cr, hf9⟩ := own_formS hown (by omega)
    simp only [Value.slice.injEq, true_and] at hf9
    obtain ⟨rfl, rfl⟩ := hf9
    have hgr := (hown.lt gr rfl)
    go_enter Tryd.func13, Tryd.ntmps13
    go_upto_region 6 with (first | (go_at_call 48; refine CG.mono ?_; rintro e w3 ⟨rfl, hb3⟩; have hb := hw2.trans (hb3.mono hw2.size)) | (go_at_call 49; refine (CF _ hb).mono ?_; rintro e w4 ⟨rfl, hb4⟩; have hb := hb.trans (hb4.mono hb.size)))
    have hs3 := hb3.size
    have hs2 : ((w.alloc (.cells #[.string key, .string val] 41)).alloc (.cells #[.string key, .string val] 41)).heap.size = w.heap.size + 2 := by simp
    have hs4 := hb4.size
    have hp4 := cells_of (cells_of hp2 hb3 (by omega)) hb4 (by omega)
    have hown4 := own_keptH hown hb
    have c0 : w4.cell? ⟨g, 0, none⟩ = some (.slice (some ⟨gr, 0, none⟩) n cap) := cell_heap (cells_of hg hb hgl) 0
    have q0 : w4.cell? ⟨w.heap.size, 0, none⟩ = some (.string key) := cell_heap hp4 0
    have q1 : w4.cell? ⟨w.heap.size, 1, none⟩ = some (.string val) := cell_heap hp4 1
    have f0 := hown4.frozenAt (k * 2)
    have f1 := hown4.frozenAt (k * 2 + 1)
    have hlen := hown4.1
    obtain ⟨u0, hu0⟩ : ∃ u, (l.flatMap Pr.cells)[k * 2]? = some u := ⟨_, List.getElem?_eq_getElem (by omega)⟩
    obtain ⟨u1, hu1⟩ : ∃ u, (l.flatMap Pr.cells)[k * 2 + 1]? = some u := ⟨_, List.getElem?_eq_getElem (by omega)⟩
    have d0 := (hown4.cellAt (k * 2) (by omega)).trans hu0
    have d1 := (hown4.cellAt (k * 2 + 1) (by omega)).trans hu1
    obtain ⟨s1, hg1⟩ := hown4.stored (k * 2) (.string key)
    obtain ⟨s2, hg2⟩ := s1.stored (k * 2 + 1) (.string val)
    have hlenN := HN
    clear hu0 hu1 hp2 hp4 p0 p1 CF CG hrow2 hr HN e1 hs2
    go_region
    go_wp2
    go_ret
    have hne : gr ≠ g := fun e => by
      subst e
      have := own_tagS hown rfl hg
      revert this; decide
    have hb5 : Below w.heap.size w w4 := hb
    rw [set_flat l k ⟨key, val⟩] at s2
    have hRl : R.length = n := by rw [hRR, List.length_set]; exact hlenN.out
    refine ⟨by first | rfl | simp, r, ⟨hgd', hBg, some ⟨gr, 0, none⟩, cap, ?_, ?_, by rw [hRl]; exact hrb⟩, ?_, .inl rfl⟩
    · rw [hRl]
      show ((w4.setCell ⟨gr, k * 2, none⟩ (.string key)).setCell ⟨gr, k * 2 + 1, none⟩ (.string val)).heap[g]? = _
      rw [heap_setCell_other _ _ _ _ (fun e => hne (by simp at e; exact e.symm)), heap_setCell_other _ _ _ _ (fun e => hne (by simp at e; exact e.symm))]
      exact cells_of hg hb hgl
    · rw [hRl, hRR]; exact s2
    · have hrg : r = some gr := hrb.symm
      exact (((Fr.of_below hb5).setR hrg).setR hrg).drew
  · have hRR := HIF rfl
    clear HSF HIF hfl
    have n1 : (k : Int) ≤ (n : Int) := by omega
    have n1k : k ≤ n := by omega
    go_enter Tryd.func13, Tryd.ntmps13
    go_upto_region 7 with (first | (go_at_call 48; refine CG.mono ?_; rintro e w3 ⟨rfl, hb3⟩; have hb := hw2.trans (hb3.mono hw2.size)) | (go_at_call 49; refine (CF _ hb).mono ?_; rintro e w4 ⟨rfl, hb4⟩; have hb := hb.trans (hb4.mono hb.size)))
    have hs3 := hb3.size
    have hs2 : ((w.alloc (.cells #[.string key, .string val] 41)).alloc (.cells #[.string key, .string val] 41)).heap.size = w.heap.size + 2 := by simp
    have hs4 := hb4.size
    have hp4 := cells_of (cells_of hp2 hb3 (by omega)) hb4 (by omega)
    have hown4 := own_keptH hown hb
    have hg4 := cells_of hg hb hgl
    have c0 : w4.cell? ⟨g, 0, none⟩ = some (.slice a n cap) := cell_heap hg4 0
    have q0 : w4.cell? ⟨w.heap.size, 0, none⟩ = some (.string key) := cell_heap hp4 0
    have q1 : w4.cell? ⟨w.heap.size, 1, none⟩ = some (.string val) := cell_heap hp4 1
    have hlenN := HN
    have hobl : ∀ j, (Value.slice a n cap).ownBlock = some j → j < w.heap.size := fun j hj => (hown.lt j hj).2
    have hobg : (Value.slice a n cap).ownBlock ≠ some g := fun e => by
      have := own_tagS hown e hg
      revert this; decide
    have c0a : (w4.alloc (.cells #[.string key, .string val] 41)).cell? ⟨g, 0, none⟩ = some (.slice a n cap) := cell_heap (cells_of hg4 ((Below.refl _ _).alloc (Nat.le_refl _) _) (by omega)) 0
    have hbs := hb.size
    clear hp2 hp4 p0 p1 CF CG hrow2 hr HN e1 hs2
    refine wp_region_any (by kernel_rfl) ?_
    change wpAny _ _ _ _ _ _ _ (World.drew _)
    refine wpAny_take (i := 0) (v := .pointer (some ⟨g, 0, none⟩)) rfl (by kernel_rfl) (by kernel_rfl) (by kernel_rfl) (fun _ _ _ h => h) (Or.inl ⟨by rfl, fun w9 => by (go_simp; try with_reducible rfl)⟩) ?_
    change wpAny _ _ _ _ _ _ (Act.put _ (some 31) _) _; dsimp only [Act.put]; simp only [List.setIfInBounds_toArray, List.set_cons_succ, List.set_cons_zero]
    refine wpAny_take (i := 1) (v := .pointer (some ⟨g, 0, none⟩)) rfl (by kernel_rfl) (by kernel_rfl) (by kernel_rfl) (fun _ _ _ h => h) (Or.inl ⟨by rfl, fun w9 => by (go_simp; try with_reducible rfl)⟩) ?_
    change wpAny _ _ _ _ _ _ (Act.put _ (some 32) _) _; dsimp only [Act.put]; simp only [List.setIfInBounds_toArray, List.set_cons_succ, List.set_cons_zero]
    refine wpAny_take (i := 2) (v := .pointer (some ⟨g, 0, none⟩)) rfl (by kernel_rfl) (by kernel_rfl) (by kernel_rfl) (fun _ _ _ h => h) (Or.inl ⟨by rfl, fun w9 => by (go_simp; try with_reducible rfl)⟩) ?_
    change wpAny _ _ _ _ _ _ (Act.put _ (some 33) _) _; dsimp only [Act.put]; simp only [List.setIfInBounds_toArray, List.set_cons_succ, List.set_cons_zero]
    refine wpAny_take (i := 3) (v := .pointer (some ⟨g, 0, none⟩)) rfl (by kernel_rfl) (by kernel_rfl) (by kernel_rfl) (fun _ _ _ h => h) (Or.inl ⟨by rfl, fun w9 => by (go_simp; try with_reducible rfl)⟩) ?_
    change wpAny _ _ _ _ _ _ (Act.put _ (some 34) _) _; dsimp only [Act.put]; simp only [List.setIfInBounds_toArray, List.set_cons_succ, List.set_cons_zero]
    refine wpAny_take (i := 5) (v := .int .i64 (k : Int)) rfl (by kernel_rfl) (by kernel_rfl) (by kernel_rfl) (fun _ _ _ h => h) (Or.inl ⟨by rfl, fun w9 => by (go_simp; try with_reducible rfl)⟩) ?_
    change wpAny _ _ _ _ _ _ (Act.put _ (some 36) _) _; dsimp only [Act.put]; simp only [List.setIfInBounds_toArray, List.set_cons_succ, List.set_cons_zero]
    refine wpAny_ready (rs := [4, 6]) (by kernel_rfl) (by simp) ?_
    refine (AllReady.cons rfl (fun K hK => ?_) (AllReady.cons rfl (fun K hK => ?_) AllReady.nil))
    · go_simp
      refine hK _ _ ?_
      clear hK K
      refine wpAny_ready (rs := [6]) (by kernel_rfl) (by simp) ?_
      refine (AllReady.cons rfl (fun K hK => ?_) AllReady.nil)
      go_simp
      refine hK _ _ ?_
      clear hK K
      refine wpAny_ready (rs := [7]) (by kernel_rfl) (by simp) ?_
      refine (AllReady.cons rfl (fun K hK => ?_) AllReady.nil)
      go_simp
      refine hK _ _ ?_
      clear hK K
      refine wpAny_ready (rs := [8]) (by kernel_rfl) (by simp) ?_
      refine (AllReady.cons rfl (fun K hK => ?_) AllReady.nil)
      go_simp
      refine (insPr_any (w := (w4.alloc (.cells #[.string key, .string val] 41)).drew) (base := B) (xs := l.flatMap Pr.cells) (u0 := .string key) (u1 := .string val) (World.ownsRow.drew (hown4.alloc _)) (pr_cells_one l) n1k (by omega) (Nat.le_trans hBg (Nat.le_trans (Nat.le_of_lt hgl) (Nat.le_trans hb.size (by simp)))) (heap_push w4 _ _) (fun e => by have := hobl _ e; omega) rfl rfl).mono ?_
      rintro e w5 ⟨v5, rfl, hown5, hgr5, hat5⟩
      rw [ins_flat l k ⟨key, val⟩, ← hRR] at hown5
      have hg5 := grown_at hgr5 (show (w4.alloc (.cells #[.string key, .string val] 41)).drew.heap[g]? = _ from cells_of (K := w4.heap.size) hg4 ((Below.refl _ w4).alloc (Nat.le_refl _) _).drew (by omega)) (fun e => hobg e.symm)
      have c5 := cell_heap hg5 0
      have f5 := free_of_one hg5
      have hv5 : v5.ownBlock ≠ some g := fun e => by have := own_tagS hown5 e hg5; revert this; decide
      obtain ⟨a5, cap5, hv9, _⟩ := own_sliceN hown5
      subst hv9
      refine hK _ _ ?_
      clear hK K
      refine wpAny_take (i := 9) (v := .pointer (some ⟨g, 0, none⟩)) rfl (by kernel_rfl) (by kernel_rfl) (by kernel_rfl) (fun _ _ _ h => h) (Or.inl ⟨by rfl, fun w9 => by (go_simp; try with_reducible rfl)⟩) ?_
      change wpAny _ _ _ _ _ _ (Act.put _ (some 40) _) _; dsimp only [Act.put]; simp only [List.setIfInBounds_toArray, List.set_cons_succ, List.set_cons_zero]
      refine wpAny_take (i := 10) (v := .pointer (some ⟨g, 0, none⟩)) rfl (by kernel_rfl) (by kernel_rfl) (by kernel_rfl) (fun _ _ _ h => h) (Or.inl ⟨by rfl, fun w9 => by (go_simp; try with_reducible rfl)⟩) ?_
      change wpAny _ _ _ _ _ _ (Act.put _ (some 41) _) _; dsimp only [Act.put]; simp only [List.setIfInBounds_toArray, List.set_cons_succ, List.set_cons_zero]
      refine wpAny_ready (rs := [11]) (by kernel_rfl) (by simp) ?_
      refine (AllReady.cons rfl (fun K hK => ?_) AllReady.nil)
      go_simp
      refine hK _ _ ?_
      clear hK K
      refine wpAny_done (by kernel_rfl) ?_ _
      go_wp2
      go_ret
      have hRl : R.length = n + 1 := by rw [hRR]; simp only [List.length_append, List.length_take, List.length_drop, List.length_cons, List.length_nil, hlenN.out]; omega
      refine ⟨by first | rfl | simp, _, ⟨hgd', hBg, a5, cap5, ?_, ?_, rfl⟩, ?_, ?_⟩
      · rw [hRl]; exact one_setCell hg5
      · rw [hRl]; exact ownsRow_setCell_other hown5 hv5 _
      · have hb6 := (hb.alloc hb.size (.cells #[.string key, .string val] 41)).drew
        rw [hrb] at hgr5
        exact ((Fr.of_below hb6).grown hgr5).setG
      · rw [hRl]
        rcases hat5 with hat5 | hat5
        · exact .inl (hat5.trans hrb)
        · exact .inr ⟨_, hat5, Nat.le_trans hb.size (by first | exact Nat.le_succ _ | simp)⟩
    · go_simp
      refine hK _ _ ?_
      clear hK K
      refine wpAny_ready (rs := [4, 7]) (by kernel_rfl) (by simp) ?_
      refine (AllReady.cons rfl (fun K hK => ?_) (AllReady.cons rfl (fun K hK => ?_) AllReady.nil))
      · go_simp
        refine hK _ _ ?_
        clear hK K
        refine wpAny_ready (rs := [7]) (by kernel_rfl) (by simp) ?_
        refine (AllReady.cons rfl (fun K hK => ?_) AllReady.nil)
        go_simp
        refine hK _ _ ?_
        clear hK K
        refine wpAny_ready (rs := [8]) (by kernel_rfl) (by simp) ?_
        refine (AllReady.cons rfl (fun K hK => ?_) AllReady.nil)
        go_simp
        refine (insPr_any (w := (w4.alloc (.cells #[.string key, .string val] 41)).drew) (base := B) (xs := l.flatMap Pr.cells) (u0 := .string key) (u1 := .string val) (World.ownsRow.drew (hown4.alloc _)) (pr_cells_one l) n1k (by omega) (Nat.le_trans hBg (Nat.le_trans (Nat.le_of_lt hgl) (Nat.le_trans hb.size (by simp)))) (heap_push w4 _ _) (fun e => by have := hobl _ e; omega) rfl rfl).mono ?_
        rintro e w5 ⟨v5, rfl, hown5, hgr5, hat5⟩
        rw [ins_flat l k ⟨key, val⟩, ← hRR] at hown5
        have hg5 := grown_at hgr5 (show (w4.alloc (.cells #[.string key, .string val] 41)).drew.heap[g]? = _ from cells_of (K := w4.heap.size) hg4 ((Below.refl _ w4).alloc (Nat.le_refl _) _).drew (by omega)) (fun e => hobg e.symm)
        have c5 := cell_heap hg5 0
        have f5 := free_of_one hg5
        have hv5 : v5.ownBlock ≠ some g := fun e => by have := own_tagS hown5 e hg5; revert this; decide
        obtain ⟨a5, cap5, hv9, _⟩ := own_sliceN hown5
        subst hv9
        refine hK _ _ ?_
        clear hK K
        refine wpAny_take (i := 9) (v := .pointer (some ⟨g, 0, none⟩)) rfl (by kernel_rfl) (by kernel_rfl) (by kernel_rfl) (fun _ _ _ h => h) (Or.inl ⟨by rfl, fun w9 => by (go_simp; try with_reducible rfl)⟩) ?_
        change wpAny _ _ _ _ _ _ (Act.put _ (some 40) _) _; dsimp only [Act.put]; simp only [List.setIfInBounds_toArray, List.set_cons_succ, List.set_cons_zero]
        refine wpAny_take (i := 10) (v := .pointer (some ⟨g, 0, none⟩)) rfl (by kernel_rfl) (by kernel_rfl) (by kernel_rfl) (fun _ _ _ h => h) (Or.inl ⟨by rfl, fun w9 => by (go_simp; try with_reducible rfl)⟩) ?_
        change wpAny _ _ _ _ _ _ (Act.put _ (some 41) _) _; dsimp only [Act.put]; simp only [List.setIfInBounds_toArray, List.set_cons_succ, List.set_cons_zero]
        refine wpAny_ready (rs := [11]) (by kernel_rfl) (by simp) ?_
        refine (AllReady.cons rfl (fun K hK => ?_) AllReady.nil)
        go_simp
        refine hK _ _ ?_
        clear hK K
        refine wpAny_done (by kernel_rfl) ?_ _
        go_wp2
        go_ret
        have hRl : R.length = n + 1 := by rw [hRR]; simp only [List.length_append, List.length_take, List.length_drop, List.length_cons, List.length_nil, hlenN.out]; omega
        refine ⟨by first | rfl | simp, _, ⟨hgd', hBg, a5, cap5, ?_, ?_, rfl⟩, ?_, ?_⟩
        · rw [hRl]; exact one_setCell hg5
        · rw [hRl]; exact ownsRow_setCell_other hown5 hv5 _
        · have hb6 := (hb.alloc hb.size (.cells #[.string key, .string val] 41)).drew
          rw [hrb] at hgr5
          exact ((Fr.of_below hb6).grown hgr5).setG
        · rw [hRl]
          rcases hat5 with hat5 | hat5
          · exact .inl (hat5.trans hrb)
          · exact .inr ⟨_, hat5, Nat.le_trans hb.size (by first | exact Nat.le_succ _ | simp)⟩
      · go_simp
        refine hK _ _ ?_
        clear hK K
        refine wpAny_ready (rs := [4]) (by kernel_rfl) (by simp) ?_
        refine (AllReady.cons rfl (fun K hK => ?_) AllReady.nil)
        go_simp
        refine hK _ _ ?_
        clear hK K
        refine wpAny_ready (rs := [8]) (by kernel_rfl) (by simp) ?_
        refine (AllReady.cons rfl (fun K hK => ?_) AllReady.nil)
        go_simp
        refine (insPr_any (w := (w4.alloc (.cells #[.string key, .string val] 41)).drew) (base := B) (xs := l.flatMap Pr.cells) (u0 := .string key) (u1 := .string val) (World.ownsRow.drew (hown4.alloc _)) (pr_cells_one l) n1k (by omega) (Nat.le_trans hBg (Nat.le_trans (Nat.le_of_lt hgl) (Nat.le_trans hb.size (by simp)))) (heap_push w4 _ _) (fun e => by have := hobl _ e; omega) rfl rfl).mono ?_
        rintro e w5 ⟨v5, rfl, hown5, hgr5, hat5⟩
        rw [ins_flat l k ⟨key, val⟩, ← hRR] at hown5
        have hg5 := grown_at hgr5 (show (w4.alloc (.cells #[.string key, .string val] 41)).drew.heap[g]? = _ from cells_of (K := w4.heap.size) hg4 ((Below.refl _ w4).alloc (Nat.le_refl _) _).drew (by omega)) (fun e => hobg e.symm)
        have c5 := cell_heap hg5 0
        have f5 := free_of_one hg5
        have hv5 : v5.ownBlock ≠ some g := fun e => by have := own_tagS hown5 e hg5; revert this; decide
        obtain ⟨a5, cap5, hv9, _⟩ := own_sliceN hown5
        subst hv9
        refine hK _ _ ?_
        clear hK K
        refine wpAny_take (i := 9) (v := .pointer (some ⟨g, 0, none⟩)) rfl (by kernel_rfl) (by kernel_rfl) (by kernel_rfl) (fun _ _ _ h => h) (Or.inl ⟨by rfl, fun w9 => by (go_simp; try with_reducible rfl)⟩) ?_
        change wpAny _ _ _ _ _ _ (Act.put _ (some 40) _) _; dsimp only [Act.put]; simp only [List.setIfInBounds_toArray, List.set_cons_succ, List.set_cons_zero]
        refine wpAny_take (i := 10) (v := .pointer (some ⟨g, 0, none⟩)) rfl (by kernel_rfl) (by kernel_rfl) (by kernel_rfl) (fun _ _ _ h => h) (Or.inl ⟨by rfl, fun w9 => by (go_simp; try with_reducible rfl)⟩) ?_
        change wpAny _ _ _ _ _ _ (Act.put _ (some 41) _) _; dsimp only [Act.put]; simp only [List.setIfInBounds_toArray, List.set_cons_succ, List.set_cons_zero]
        refine wpAny_ready (rs := [11]) (by kernel_rfl) (by simp) ?_
        refine (AllReady.cons rfl (fun K hK => ?_) AllReady.nil)
        go_simp
        refine hK _ _ ?_
        clear hK K
        refine wpAny_done (by kernel_rfl) ?_ _
        go_wp2
        go_ret
        have hRl : R.length = n + 1 := by rw [hRR]; simp only [List.length_append, List.length_take, List.length_drop, List.length_cons, List.length_nil, hlenN.out]; omega
        refine ⟨by first | rfl | simp, _, ⟨hgd', hBg, a5, cap5, ?_, ?_, rfl⟩, ?_, ?_⟩
        · rw [hRl]; exact one_setCell hg5
        · rw [hRl]; exact ownsRow_setCell_other hown5 hv5 _
        · have hb6 := (hb.alloc hb.size (.cells #[.string key, .string val] 41)).drew
          rw [hrb] at hgr5
          exact ((Fr.of_below hb6).grown hgr5).setG
        · rw [hRl]
          rcases hat5 with hat5 | hat5
          · exact .inl (hat5.trans hrb)
          · exact .inr ⟨_, hat5, Nat.le_trans hb.size (by first | exact Nat.le_succ _ | simp)⟩
set_option maxRecDepth 100000 in
set_option maxHeartbeats 3200000 in
theorem dropC_any (B g : Nat) (r : Option Nat) (l : List Pr) (key : ByteArray) (w : World) (h : StC w B g r l) (hn6 : l.length ≤ 100000) :
    Calls Tryd.prog 15 #[.pointer (some ⟨g, 0, none⟩), .string key] w fun e w' => e = .returned (.bool (foundL l key)) ∧ StC w' B g r (dropL l key) ∧ Fr w w' g r := by
  have hB := h
  have hgd9 := dropL_good h.1 key
  obtain ⟨hgd, hBg, a, cap, hg, hown, hrb⟩ := h
  obtain ⟨_, _, e9, hr, hcap, hcm, hnone⟩ := own_sliceN hown
  cases e9
  obtain ⟨n, hn⟩ : ∃ n, l.length = n := ⟨_, rfl⟩
  rw [hn] at hg hown hcap hn6 hrb
  have hgl := row_lt hg
  have CF := find_any g a n cap l key w hg hr hn hcap hcm (by omega) (goodL_sorted hgd)
  unfold maxLen at hcm
  have HN := Lib.hid hn
  have hfl : foundL l key = true → placeL l key < l.length := fun h => (found_at h).1
  have hD : dropL l key = if foundL l key = true then l.take (placeL l key) ++ l.drop (placeL l key + 1) else l := rfl
  rw [hn] at hfl
  obtain ⟨i, hi⟩ : ∃ i, placeL l key = i := ⟨_, rfl⟩
  obtain ⟨f, hf⟩ : ∃ f, foundL l key = f := ⟨_, rfl⟩
  rw [hi, hf] at CF hfl hD
  rw [hf]
  obtain ⟨R, hR⟩ : ∃ R, dropL l key = R := ⟨_, rfl⟩
  rw [hR] at hgd9 hD ⊢
  clear hn hi hf hR
  have c0 : ∀ W, Below w.heap.size w W → W.cell? ⟨g, 0, none⟩ = some (.slice a n cap) := fun W hb => cell_heap (cells_of hg hb hgl) 0
  cases f
  · simp only [Bool.false_eq_true, if_false] at hD
    subst hD
    go_enter Tryd.func15, Tryd.ntmps15
    go_wp2_with (go_at_call 49; refine CF.mono ?_; rintro e w1 ⟨rfl, hb1⟩)
    go_ret
    exact ⟨rfl, hB.kept hb1, Fr.of_below hb1⟩
  · simp only [if_true] at hD
    have hin := hfl rfl
    obtain ⟨gr, cr, hf9⟩ := own_formS hown (by omega)
    simp only [Value.slice.injEq, true_and] at hf9
    obtain ⟨rfl, rfl⟩ := hf9
    have hrg : r = some gr := hrb.symm
    have hne : gr ≠ g := fun e => by
      subst e
      have := own_tagS hown rfl hg
      revert this; decide
    have hadd : (i : Int) + 1 = ((i + 1 : Nat) : Int) := by omega
    have wq2 : IntKind.i64.wrap ((i : Int) + 1) = (i : Int) + 1 := by rw [IntKind.wrap_i64]; omega
    have CD := fun W (hb : Below w.heap.size w W) => delPr_any (w := W) (i := i) (j := i + 1) (own_kept9 hown hb) HN.out hin rfl (by omega) hcm
    go_enter Tryd.func15, Tryd.ntmps15
    go_upto_region 3 with (go_at_call 49; refine CF.mono ?_; rintro e w1 ⟨rfl, hb1⟩)
    have c1 := c0 w1 hb1
    have hg1 := cells_of hg hb1 hgl
    have CD1 := CD w1 hb1
    rw [← hadd] at CD1
    clear CD CF c0 hadd
    go_wp2_with (go_at_call 51; refine CD1.mono ?_; rintro e w2 ⟨rfl, hown2, hgr2⟩; have hg2 := grown_at hgr2 hg1 (fun q => hne (Option.some.inj q).symm); have c2 := cell_heap hg2 0; have f2 := frozen9 hg2 0)
    go_ret
    have hRl : R.length = n - 1 := by rw [hD, List.length_append, List.length_take, List.length_drop, HN.out]; omega
    rw [← hD] at hown2
    refine ⟨rfl, ⟨hgd9, hBg, some ⟨gr, 0, none⟩, cap, ?_, ?_, ?_⟩, ?_⟩
    · rw [hRl]; exact cells_put hg2 _
    · rw [hRl]; exact ownsRow_setCell_other hown2 (fun q => hne (by simpa [Value.ownBlock] using q)) _
    · rw [hRl, hrg]; rfl
    · refine Fr.setG ?_
      rw [hrg]
      exact (Fr.of_below hb1).grown hgr2
set_option maxRecDepth 100000 in
theorem pairsC_any (B g : Nat) (r : Option Nat) (l : List Pr) (w : World) (h : StC w B g r l) (hn6 : l.length ≤ 100000) :
    Calls Tryd.prog 19 #[.pointer (some ⟨g, 0, none⟩)] w fun e w' => ∃ v, e = .returned v ∧ w'.ownsRow w.heap.size 41 2 v l.length (l.flatMap Pr.cells) ∧ Below w.heap.size w w' := by
  obtain ⟨hgd, _, a, cap, hg, hown, _⟩ := h
  obtain ⟨_, _, e9, hr, hcap, hcm, hnone⟩ := own_sliceN hown
  cases e9
  have hc : w.cell? ⟨g, 0, none⟩ = some (.slice a l.length cap) := cell_heap hg 0
  have CC := clonePr_any a l.length cap l w hr rfl (by omega) hnone
  go_enter Tryd.func19, Tryd.ntmps19
  go_wp2_with (go_at_call 53; refine CC.mono ?_; rintro e w1 ⟨v, rfl, ho, hb⟩)
  go_ret
  exact ⟨v, rfl, ho, hb⟩
theorem wpList_buildS9 {P : Program} {ops : Array Oper} {rest : List Oper} {op : Oper} {a : Act} {w : World} {Q : Exit → Act → World → Prop} (hgd : op.guard = none) (t : TypeId) (parts : Array (Nat × Operand)) (ho : op.op = .build t parts) {v : Value} (us : Array (Nat × Value)) (hu : (parts.map fun x => (x.1, a.eval x.2)) = us)
    (hrun : (Instr.build t us).run P w = .ok v w) (h : wpList P ops Q rest (a.put op.dst v) w) : wpList P ops Q (op :: rest) a w :=
  wpList_plain hgd fun _ hK => by
    subst hu
    unfold Oper.wp
    simp [execOp, ho, hrun, Result.andThen]
    exact hK _ _ h
theorem build_store (a : Option Addr) (n c : Nat) (W : World) : (Instr.build 93 #[(0, .slice a n c)]).run Tryd.prog W = .ok (.agg #[.slice a n c]) W := by kernel_rfl
set_option maxRecDepth 100000 in
theorem copyC_any (B g : Nat) (r : Option Nat) (l : List Pr) (w : World) (h : StC w B g r l) (hn6 : l.length ≤ 100000) :
    Calls Tryd.prog 18 #[.pointer (some ⟨g, 0, none⟩)] w fun e w' => ∃ g2 r2, e = .returned (.pointer (some ⟨g2, 0, none⟩)) ∧ StC w' w.heap.size g2 r2 l ∧ Below w.heap.size w w' := by
  have CP := pairsC_any B g r l w h hn6
  have hgd := h.1
  go_enter Tryd.func18, Tryd.ntmps18
  go_wp2_with (first | (go_at_call 19; refine CP.mono ?_; rintro e w1 ⟨v, rfl, ho, hb⟩; obtain ⟨a1, c1, rfl, _⟩ := own_sliceN ho) | (refine wpList_buildS9 rfl 93 _ rfl #[(0, .slice a1 l.length c1)] (by first | rfl | simp [Act.eval]) (build_store a1 l.length c1 _) ?_))
  go_ret
  exact ⟨w1.heap.size, _, rfl, ⟨hgd, hb.size, a1, c1, heap_push w1 _ _, ho.alloc _, rfl⟩, hb.trans ((Below.refl _ _).alloc hb.size _)⟩
end Go.Proofs.YtpledhipdiephaaDoor
