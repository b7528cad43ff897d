/- The root of a list of pairs; a leaf of a proof as the document makes it. -/
import Derived.Test.YtfikbaoiialfeaaDoorPt1
import Derived.Test.YtfikbaoiialfeaaDoorVal1
import Derived.Test.YtfikbaoiialfeaaDoorGY
import Derived.BigRegion
import Derived.RegionTactic
import Derived.Deep.MidRow
import Derived.OwnWalk
import Derived.WalkKit
import Derived.ProofKit
import Derived.Handy
import Derived.Below
import Derived.Lib.Hide
import Derived.IntWalk
import Derived.Outline
import Derived.WalkLawsBesides
import Derived.WalkSpells
namespace Go.Proofs.YtfikbaoiialfeaaDoor
open Go.RowKit
attribute [local go_sem] strV
set_option linter.unusedVariables false
theorem SameT.setRowT {T e : TypeId} {B g : Nat} {w : World} {cs cur : Array Value} {fz : Nat × Nat} (hT : T ≠ e) (hg : w.heap[g]? = some (.cells cur e fz)) : SameT T B w (w.setRow g cs) :=
  ⟨by simp [World.setRow], fun j _ cur2 fz2 h => by
    have hne : j ≠ g := fun h9 => by subst h9; rw [hg] at h; cases h; exact hT rfl
    rw [setRow_other w g j cs (by omega)]; exact h⟩
set_option maxRecDepth 100000 in
set_option maxHeartbeats 6400000 in
theorem proofRoot_any (a : Option Addr) (n cap : Nat) (l : List Pr) (w : World) (hW : SW w) (hr : RowAt w a (l.flatMap Pr.cells)) (hn : l.length = n) (hn6 : n ≤ 1000000) (hcap : n ≤ cap) (hs : ∀ p ∈ l, p.k.size ≤ 1000000 ∧ p.v.size ≤ 1000000) :
    Calls Tryd.prog 31 #[.slice a n cap] w fun e w' => e = .returned (.agg (hrow (rootF (n : Int) (topH (l.map leafH)).1))) ∧ Below w.heap.size w w' := by
  have hq := heap_push w #[Value.int .u8 0, Value.int .u8 0, Value.int .u8 0, Value.int .u8 0, Value.int .u8 0, Value.int .u8 0, Value.int .u8 0, Value.int .u8 0, Value.int .u8 0, Value.int .u8 0, Value.int .u8 0, Value.int .u8 0, Value.int .u8 0, Value.int .u8 0, Value.int .u8 0, Value.int .u8 0, Value.int .u8 0, Value.int .u8 0, Value.int .u8 0, Value.int .u8 0, Value.int .u8 0, Value.int .u8 0, Value.int .u8 0, Value.int .u8 0, Value.int .u8 0, Value.int .u8 0, Value.int .u8 0, Value.int .u8 0, Value.int .u8 0, Value.int .u8 0, Value.int .u8 0, Value.int .u8 0] 25
  have hb0 : Below w.heap.size w (w.alloc (.cells #[Value.int .u8 0, Value.int .u8 0, Value.int .u8 0, Value.int .u8 0, Value.int .u8 0, Value.int .u8 0, Value.int .u8 0, Value.int .u8 0, Value.int .u8 0, Value.int .u8 0, Value.int .u8 0, Value.int .u8 0, Value.int .u8 0, Value.int .u8 0, Value.int .u8 0, Value.int .u8 0, Value.int .u8 0, Value.int .u8 0, Value.int .u8 0, Value.int .u8 0, Value.int .u8 0, Value.int .u8 0, Value.int .u8 0, Value.int .u8 0, Value.int .u8 0, Value.int .u8 0, Value.int .u8 0, Value.int .u8 0, Value.int .u8 0, Value.int .u8 0, Value.int .u8 0, Value.int .u8 0] 25)) := Below.alloc (Below.refl _ _) (Nat.le_refl _) _
  have CL := fun W (hb : Below w.heap.size w W) => leaves_any a n cap l W (hW.below hb) (hr.below hb) hn hn6 hs
  have hml : (l.map leafH).length = n := by rw [List.length_map, hn]
  have CT := fun W (hb : Below w.heap.size w W) (a9 : Option Addr) (c9 : Nat) (h9 : n ≤ c9) (h8 : c9 ≤ maxLen) (h7 : RowAt W a9 ((l.map leafH).flatMap H32.cells)) => top_any n _ a9 c9 W hml hn6 h9 h8 h7 (hW.below hb)
  obtain ⟨T, hT⟩ : ∃ t, topH (l.map leafH) = t := ⟨_, rfl⟩
  simp only [hT] at CT ⊢
  have CR := fun W (hb : Below w.heap.size w W) => root_any (n : Int) T.1 W (hW.below hb) T.2
  obtain ⟨R, hR⟩ : ∃ t : H32, rootF (n : Int) T.1 = t.1 := ⟨⟨_, rootF_len _ _⟩, rfl⟩
  simp only [hR] at CR ⊢
  have hRs : (hrow R.1).size = 32 := by rw [hrow_size]; exact R.2
  have hRo := hrow_one R.1
  clear hT hR hml hs hn
  go_enter Tryd.func31, Tryd.ntmps31
  go_upto_region 1 with fail
  refine wp_nameE _ (fun W1 hX => ?_)
  have y2 : W1.heap[w.heap.size]? = some (.cells #[Value.int .u8 0, Value.int .u8 0, Value.int .u8 0, Value.int .u8 0, Value.int .u8 0, Value.int .u8 0, Value.int .u8 0, Value.int .u8 0, Value.int .u8 0, Value.int .u8 0, Value.int .u8 0, Value.int .u8 0, Value.int .u8 0, Value.int .u8 0, Value.int .u8 0, Value.int .u8 0, Value.int .u8 0, Value.int .u8 0, Value.int .u8 0, Value.int .u8 0, Value.int .u8 0, Value.int .u8 0, Value.int .u8 0, Value.int .u8 0, Value.int .u8 0, Value.int .u8 0, Value.int .u8 0, Value.int .u8 0, Value.int .u8 0, Value.int .u8 0, Value.int .u8 0, Value.int .u8 0] 25 (0, 0)) := by rw [hX]; exact hq
  have hbel : Below w.heap.size w W1 := by rw [hX]; exact hb0
  clear hX hq hb0
  have hy2 := (Array.getElem?_eq_some_iff.1 y2).1
  go_wp2_with (first | (go_at_call 74; refine (CL _ hbel).mono ?_; rintro e w4 ⟨vh, rfl, hoh, hb⟩; obtain ⟨ah, ch, rfl, hrh, hh1, hh2⟩ := own_sliceH hoh; have y2 := cells_of y2 hb hy2; have hbel := hbel.trans (hb.mono hbel.size); have hy2 := Nat.lt_of_lt_of_le hy2 hb.size; clear hb hoh) | (go_at_call 20; refine (CT _ hbel ah ch hh1 hh2 hrh).mono ?_; rintro e w5 ⟨rfl, hb⟩; have y2 := cells_of y2 hb hy2; have hbel := hbel.trans (hb.mono hbel.size); have hy2 := Nat.lt_of_lt_of_le hy2 hb.size; clear hb) | (go_at_call 16; refine (CR _ hbel).mono ?_; rintro e w6 ⟨rfl, hb⟩; have y2 := cells_of y2 hb hy2; have hbel := hbel.trans (hb.mono hbel.size); have hy2 := Nat.lt_of_lt_of_le hy2 hb.size; clear hb) | (refine wpList_storeRowTo (Z := hrow R.1) rfl (.tmp 2) (.tmp 8) 25 rfl (by rw [hRs]; kernel_rfl) rfl (by rfl) y2 (by rw [hRs]; rfl) hRo ?_))
  have hrd := run_loadVar_row (P := Tryd.prog) _ _ 25 25 _ (0, 0) _ (setRow_heap _ _ _ _ _ _ y2) Tryd.underlying25 rfl (by rw [hRs]; kernel_rfl)
  refine bodyPost_ret (v := .agg (hrow R.1)) ?_ rfl ?_
  · simp [results, Tryd.results31, asAddr, Act.put, hrd]
    try rfl
  exact ⟨rfl, below_setRow hbel (Nat.le_refl _) _⟩
set_option maxRecDepth 100000 in
set_option maxHeartbeats 6400000 in
theorem refRootOf_any (a : Option Addr) (n cap : Nat) (l : List Pr) (w : World) (hr : RowAt w a (l.flatMap Pr.cells)) (hn : l.length = n) (hn6 : n ≤ 1000000) (hcap : n ≤ cap) (hs : ∀ p ∈ l, p.k.size ≤ 300000 ∧ p.v.size ≤ 300000) :
    Calls Tryd.prog 40 #[.slice a n cap] w fun e w' => e = .returned (.agg (hrow (rootF (n : Int) (topH (l.map leafH)).1))) ∧ Below w.heap.size w w' := by
  have hq := heap_push w #[Value.int .u8 0, Value.int .u8 0, Value.int .u8 0, Value.int .u8 0, Value.int .u8 0, Value.int .u8 0, Value.int .u8 0, Value.int .u8 0, Value.int .u8 0, Value.int .u8 0, Value.int .u8 0, Value.int .u8 0, Value.int .u8 0, Value.int .u8 0, Value.int .u8 0, Value.int .u8 0, Value.int .u8 0, Value.int .u8 0, Value.int .u8 0, Value.int .u8 0, Value.int .u8 0, Value.int .u8 0, Value.int .u8 0, Value.int .u8 0, Value.int .u8 0, Value.int .u8 0, Value.int .u8 0, Value.int .u8 0, Value.int .u8 0, Value.int .u8 0, Value.int .u8 0, Value.int .u8 0] 25
  have hb0 : Below w.heap.size w (w.alloc (.cells #[Value.int .u8 0, Value.int .u8 0, Value.int .u8 0, Value.int .u8 0, Value.int .u8 0, Value.int .u8 0, Value.int .u8 0, Value.int .u8 0, Value.int .u8 0, Value.int .u8 0, Value.int .u8 0, Value.int .u8 0, Value.int .u8 0, Value.int .u8 0, Value.int .u8 0, Value.int .u8 0, Value.int .u8 0, Value.int .u8 0, Value.int .u8 0, Value.int .u8 0, Value.int .u8 0, Value.int .u8 0, Value.int .u8 0, Value.int .u8 0, Value.int .u8 0, Value.int .u8 0, Value.int .u8 0, Value.int .u8 0, Value.int .u8 0, Value.int .u8 0, Value.int .u8 0, Value.int .u8 0] 25)) := Below.alloc (Below.refl _ _) (Nat.le_refl _) _
  have CL := fun W (hb : Below w.heap.size w W) => refLeaves_any a n cap l W (hr.below hb) hn hn6 hcap hs
  have hml : (l.map leafH).length = n := by rw [List.length_map, hn]
  have CT := fun W (hb : Below w.heap.size w W) (a9 : Option Addr) (c9 : Nat) (h9 : n ≤ c9) (h8 : c9 ≤ maxLen) (h7 : RowAt W a9 ((l.map leafH).flatMap H32.cells)) => refTop_any n _ a9 c9 W hml hn6 h9 h8 h7 trivial
  obtain ⟨T, hT⟩ : ∃ t, topH (l.map leafH) = t := ⟨_, rfl⟩
  simp only [hT] at CT ⊢
  have CR := fun W (hb : Below w.heap.size w W) => refRoot_any (n : Int) T.1 W T.2
  obtain ⟨R, hR⟩ : ∃ t : H32, rootF (n : Int) T.1 = t.1 := ⟨⟨_, rootF_len _ _⟩, rfl⟩
  simp only [hR] at CR ⊢
  have hRs : (hrow R.1).size = 32 := by rw [hrow_size]; exact R.2
  have hRo := hrow_one R.1
  clear hT hR hml hs hn
  go_enter Tryd.func40, Tryd.ntmps40
  go_upto_region 1 with fail
  refine wp_nameE _ (fun W1 hX => ?_)
  have y2 : W1.heap[w.heap.size]? = some (.cells #[Value.int .u8 0, Value.int .u8 0, Value.int .u8 0, Value.int .u8 0, Value.int .u8 0, Value.int .u8 0, Value.int .u8 0, Value.int .u8 0, Value.int .u8 0, Value.int .u8 0, Value.int .u8 0, Value.int .u8 0, Value.int .u8 0, Value.int .u8 0, Value.int .u8 0, Value.int .u8 0, Value.int .u8 0, Value.int .u8 0, Value.int .u8 0, Value.int .u8 0, Value.int .u8 0, Value.int .u8 0, Value.int .u8 0, Value.int .u8 0, Value.int .u8 0, Value.int .u8 0, Value.int .u8 0, Value.int .u8 0, Value.int .u8 0, Value.int .u8 0, Value.int .u8 0, Value.int .u8 0] 25 (0, 0)) := by rw [hX]; exact hq
  have hbel : Below w.heap.size w W1 := by rw [hX]; exact hb0
  clear hX hq hb0
  have hy2 := (Array.getElem?_eq_some_iff.1 y2).1
  go_wp2_with (first | (go_at_call 78; refine (CL _ hbel).mono ?_; rintro e w4 ⟨vh, rfl, hoh, hb⟩; obtain ⟨ah, ch, rfl, hrh, hh1, hh2⟩ := own_sliceH hoh; have y2 := cells_of y2 hb hy2; have hbel := hbel.trans (hb.mono hbel.size); have hy2 := Nat.lt_of_lt_of_le hy2 hb.size; clear hb hoh) | (go_at_call 21; refine (CT _ hbel ah ch hh1 hh2 hrh).mono ?_; rintro e w5 ⟨rfl, hb⟩; have y2 := cells_of y2 hb hy2; have hbel := hbel.trans (hb.mono hbel.size); have hy2 := Nat.lt_of_lt_of_le hy2 hb.size; clear hb) | (go_at_call 17; refine (CR _ hbel).mono ?_; rintro e w6 ⟨rfl, hb⟩; have y2 := cells_of y2 hb hy2; have hbel := hbel.trans (hb.mono hbel.size); have hy2 := Nat.lt_of_lt_of_le hy2 hb.size; clear hb) | (refine wpList_storeRowTo (Z := hrow R.1) rfl (.tmp 2) (.tmp 8) 25 rfl (by rw [hRs]; kernel_rfl) rfl (by rfl) y2 (by rw [hRs]; rfl) hRo ?_))
  have hrd := run_loadVar_row (P := Tryd.prog) _ _ 25 25 _ (0, 0) _ (setRow_heap _ _ _ _ _ _ y2) Tryd.underlying25 rfl (by rw [hRs]; kernel_rfl)
  refine bodyPost_ret (v := .agg (hrow R.1)) ?_ rfl ?_
  · simp [results, Tryd.results40, asAddr, Act.put, hrd]
    try rfl
  exact ⟨rfl, below_setRow hbel (Nat.le_refl _) _⟩
def Fact.leaf (k v : ByteArray) (i : Int) (WL : List H32) (B : Nat) : Fact := ⟨fun x w => ∃ pa pc, x = .agg (⟨k, v, i, pa, WL.length, pc, WL⟩ : LeafV).cells.toArray ∧ (⟨k, v, i, pa, WL.length, pc, WL⟩ : LeafV).held w B, fun x y z ⟨pa, pc, h1, h2⟩ hb => ⟨pa, pc, h1, h2.same (SameT.below hb)⟩⟩
def LeafPost (w : World) (d : LeafD) (e : Ending) (w' : World) : Prop := ∃ lf : LeafV, e = .returned (.agg lf.cells.toArray) ∧ lf.d = d ∧ lf.held w' w.heap.size ∧ Below w.heap.size w w'
set_option maxRecDepth 100000 in
set_option maxHeartbeats 6400000 in
theorem leafAt_any (a : Option Addr) (n cap : Nat) (l : List Pr) (ah : Option Addr) (ch : Nat) (i : Nat) (w : World) (hr : RowAt w a (l.flatMap Pr.cells)) (hn : l.length = n) (hi : i < n) (hn6 : n ≤ 1000000) (hcap : n ≤ cap) (hh1 : n ≤ ch) (hh2 : ch ≤ maxLen) (hh : RowAt w ah ((l.map leafH).flatMap H32.cells)) (hs : ∀ p ∈ l, p.k.size ≤ 300000 ∧ p.v.size ≤ 300000) :
    Calls Tryd.prog 79 #[.slice a n cap, .slice ah n ch, .int .i64 (i : Nat)] w (LeafPost w (mkD l i)) := by
  have hil : i < l.length := by omega
  have hq := heap_push w #[.string ⟨#[]⟩, .string ⟨#[]⟩, .int .i64 0, .slice none 0 0] 94
  have hb0 : Below w.heap.size w (w.alloc (.cells #[.string ⟨#[]⟩, .string ⟨#[]⟩, .int .i64 0, .slice none 0 0] 94)) := Below.alloc (Below.refl _ _) (Nat.le_refl _) _
  have hml : (l.map leafH).length = n := by rw [List.length_map, hn]
  have CY0 := fun W (hb : Below w.heap.size w W) => refWay_any n (l.map leafH) i ah ch W hml hi hn6 hh1 hh2 (hh.below hb) trivial
  unfold WayPost at CY0
  have hsz := hs _ (List.getElem_mem hil)
  have hmk : mkD l i = ⟨l[i].k, l[i].v, (i : Int), wayH (l.map leafH) i⟩ := by unfold mkD; rw [List.getElem?_eq_getElem hil]
  obtain ⟨WL, hWL⟩ : ∃ q, wayH (l.map leafH) i = q := ⟨_, rfl⟩
  simp only [hWL] at CY0
  rw [hWL] at hmk
  obtain ⟨b1, o1, rfl, hb1, hg1⟩ := pr_range hr hil
  obtain ⟨p, hp9⟩ : ∃ p, l[i] = p := ⟨_, rfl⟩
  rw [hp9] at hg1 hsz hmk
  have HMK := Lib.hid hmk
  unfold LeafPost
  have n0 : (0 : Int) ≤ (i : Int) := by omega
  have n1 : (i : Int) < (n : Int) := by omega
  have n2 : ((i : Nat) : Int).toNat = i := by omega
  clear hmk hp9 hWL hml hs hil hn
  go_enter Tryd.func79, Tryd.ntmps79
  go_upto_region 1 with fail
  refine wp_nameE _ (fun W1 hX => ?_)
  have y6 : W1.heap[w.heap.size]? = some (.cells #[.string ⟨#[]⟩, .string ⟨#[]⟩, .int .i64 0, .slice none 0 0] 94 (0, 0)) := by rw [hX]; exact hq
  have hbel : Below w.heap.size w W1 := by rw [hX]; exact hb0
  clear hX hq hb0
  have hy6 := (Array.getElem?_eq_some_iff.1 y6).1
  have q0 : W1.cell? ⟨b1, o1 + i * 2, none⟩ = some (.string p.k) := by rw [hbel.cell (p := ⟨b1, o1 + i * 2, none⟩) hb1]; exact hg1 0 _ rfl
  have q1 : W1.cell? ⟨b1, o1 + i * 2 + 1, none⟩ = some (.string p.v) := by rw [hbel.cell (p := ⟨b1, o1 + i * 2 + 1, none⟩) hb1]; exact hg1 1 _ rfl
  have hb1 := Nat.lt_of_lt_of_le hb1 hbel.size
  have CY := fun W (hb : Below W1.heap.size W1 W) => CY0 W (hbel.trans (hb.mono hbel.size))
  clear hg1 CY0
  refine wp_region_facts_tail 15 rfl [Fact.eq (.slice (some ⟨b1, o1, none⟩) n cap), Fact.eq (.int .i64 (i : Int)), Fact.eq (.pointer (some ⟨b1, o1 + i * 2, none⟩)), Fact.eq (.pointer (some ⟨b1, o1 + i * 2, none⟩)), Fact.eq (.string p.k), Fact.eq (.slice (some ⟨b1, o1, none⟩) n cap), Fact.eq (.int .i64 (i : Int)), Fact.eq (.pointer (some ⟨b1, o1 + i * 2, none⟩)), Fact.eq (.pointer (some ⟨b1, o1 + i * 2 + 1, none⟩)), Fact.eq (.string p.v), Fact.eq (.int .i64 (i : Int)), Fact.eq (.slice ah n ch), Fact.eq (.int .i64 (i : Int)), Fact.own w.heap.size WL.length (WL.flatMap H32.cells), Fact.leaf p.k p.v (i : Int) WL w.heap.size] (by kernel_rfl) (by kernel_rfl) (by kernel_rfl) (by kernel_rfl) (by kernel_rfl) (fun x => by simp only [List.take_succ_cons, List.take_zero, fillFrom, Act.put, List.setIfInBounds_toArray, List.set_cons_succ, List.set_cons_zero]; rfl) ?_ ?_
  · refine ⟨?_, ?_, ?_, ?_, ?_, ?_, ?_, ?_, ?_, ?_, ?_, ?_, ?_, ?_, ?_, trivial⟩
    · intro x w' hbw hd
      clear hd
      go_wp2_with fail
      exact frPost_mk rfl (by repeat (first | assumption | exact Below.refl _ _ | refine bch ?_ (by assumption) | refine Below.alloc ?_ (by simp) _)) rfl
    · intro x w' hbw hd
      clear hd
      go_wp2_with fail
      exact frPost_mk rfl (by repeat (first | assumption | exact Below.refl _ _ | refine bch ?_ (by assumption) | refine Below.alloc ?_ (by simp) _)) rfl
    · intro x w' hbw hd
      have d0 : x 0 = .slice (some ⟨b1, o1, none⟩) n cap := hd 0 rfl
      have d1 : x 1 = .int .i64 (i : Int) := hd 1 rfl
      clear hd
      go_wp2_with fail
      exact frPost_mk rfl (by repeat (first | assumption | exact Below.refl _ _ | refine bch ?_ (by assumption) | refine Below.alloc ?_ (by simp) _)) (by first | rfl | (show Value.pointer _ = Value.pointer _; simp))
    · intro x w' hbw hd
      have d2 : x 2 = .pointer (some ⟨b1, o1 + i * 2, none⟩) := hd 2 rfl
      clear hd
      go_wp2_with fail
      exact frPost_mk rfl (by repeat (first | assumption | exact Below.refl _ _ | refine bch ?_ (by assumption) | refine Below.alloc ?_ (by simp) _)) rfl
    · intro x w' hbw hd
      have d3 : x 3 = .pointer (some ⟨b1, o1 + i * 2, none⟩) := hd 3 rfl
      clear hd
      have cq : w'.cell? ⟨b1, o1 + i * 2, none⟩ = some (.string p.k) := by rw [hbw.cell (p := ⟨b1, o1 + i * 2, none⟩) hb1]; exact q0
      go_wp2_with (first | fail)
      exact frPost_mk rfl (by repeat (first | assumption | exact Below.refl _ _ | refine bch ?_ (by assumption) | refine Below.alloc ?_ (by simp) _)) rfl
    · intro x w' hbw hd
      clear hd
      go_wp2_with fail
      exact frPost_mk rfl (by repeat (first | assumption | exact Below.refl _ _ | refine bch ?_ (by assumption) | refine Below.alloc ?_ (by simp) _)) rfl
    · intro x w' hbw hd
      clear hd
      go_wp2_with fail
      exact frPost_mk rfl (by repeat (first | assumption | exact Below.refl _ _ | refine bch ?_ (by assumption) | refine Below.alloc ?_ (by simp) _)) rfl
    · intro x w' hbw hd
      have d5 : x 5 = .slice (some ⟨b1, o1, none⟩) n cap := hd 5 rfl
      have d6 : x 6 = .int .i64 (i : Int) := hd 6 rfl
      clear hd
      go_wp2_with fail
      exact frPost_mk rfl (by repeat (first | assumption | exact Below.refl _ _ | refine bch ?_ (by assumption) | refine Below.alloc ?_ (by simp) _)) (by first | rfl | (show Value.pointer _ = Value.pointer _; simp))
    · intro x w' hbw hd
      have d7 : x 7 = .pointer (some ⟨b1, o1 + i * 2, none⟩) := hd 7 rfl
      clear hd
      go_wp2_with fail
      exact frPost_mk rfl (by repeat (first | assumption | exact Below.refl _ _ | refine bch ?_ (by assumption) | refine Below.alloc ?_ (by simp) _)) rfl
    · intro x w' hbw hd
      have d8 : x 8 = .pointer (some ⟨b1, o1 + i * 2 + 1, none⟩) := hd 8 rfl
      clear hd
      have cq : w'.cell? ⟨b1, o1 + i * 2 + 1, none⟩ = some (.string p.v) := by rw [hbw.cell (p := ⟨b1, o1 + i * 2 + 1, none⟩) hb1]; exact q1
      go_wp2_with (first | fail)
      exact frPost_mk rfl (by repeat (first | assumption | exact Below.refl _ _ | refine bch ?_ (by assumption) | refine Below.alloc ?_ (by simp) _)) rfl
    · intro x w' hbw hd
      clear hd
      go_wp2_with fail
      exact frPost_mk rfl (by repeat (first | assumption | exact Below.refl _ _ | refine bch ?_ (by assumption) | refine Below.alloc ?_ (by simp) _)) rfl
    · intro x w' hbw hd
      clear hd
      go_wp2_with fail
      exact frPost_mk rfl (by repeat (first | assumption | exact Below.refl _ _ | refine bch ?_ (by assumption) | refine Below.alloc ?_ (by simp) _)) rfl
    · intro x w' hbw hd
      clear hd
      go_wp2_with fail
      exact frPost_mk rfl (by repeat (first | assumption | exact Below.refl _ _ | refine bch ?_ (by assumption) | refine Below.alloc ?_ (by simp) _)) rfl
    · intro x w' hbw hd
      have d11 : x 11 = .slice ah n ch := hd 11 rfl
      have d12 : x 12 = .int .i64 (i : Int) := hd 12 rfl
      clear hd
      have CC := CY w' hbw
      go_wp2_with (first | (go_at_call 24; refine CC.mono ?_; rintro e wx ⟨vx, rfl, hox, hbx⟩))
      exact frPost_mk rfl (by repeat (first | assumption | exact Below.refl _ _ | refine bch ?_ (by assumption) | refine Below.alloc ?_ (by simp) _)) (own_lower hox (Nat.le_trans hbel.size hbw.size))
    · intro x w' hbw hd
      have d4 : x 4 = .string p.k := hd 4 rfl
      have d9 : x 9 = .string p.v := hd 9 rfl
      have d10 : x 10 = .int .i64 (i : Int) := hd 10 rfl
      have o13 : (Fact.own w.heap.size WL.length (WL.flatMap H32.cells)).holds (x 13) w' := hd 13 rfl
      clear hd
      have o13 : w'.ownsRow w.heap.size 25 32 (x 13) WL.length (WL.flatMap H32.cells) := o13
      obtain ⟨pa, pc, hx13, hry, hp1, hp2⟩ := own_sliceH o13
      go_wp2_with (first | fail)
      refine frPost_mk rfl (by repeat (first | assumption | exact Below.refl _ _ | refine bch ?_ (by assumption) | refine Below.alloc ?_ (by simp) _)) ?_; exact ⟨pa, pc, rfl, ⟨⟨hry, rfl, hp1, hp2, by show p.k.size ≤ maxLen; unfold maxLen; omega, by show p.v.size ≤ maxLen; unfold maxLen; omega⟩, own_held (hx13 ▸ o13)⟩⟩
  · intro x w' hbw hall
    obtain ⟨pa, pc, hx14, hheld⟩ := (show (Fact.leaf p.k p.v (i : Int) WL w.heap.size).holds (x 14) w' from hall 14 (by decide))
    clear hall
    have y6 := cells_of y6 hbw hy6
    have hbel := hbel.trans (hbw.mono hbel.size)
    simp only [hx14, List.drop_succ_cons, List.drop_zero]
    go_wp2_with (refine wpList_storeRowTo (Z := (⟨p.k, p.v, (i : Int), pa, WL.length, pc, WL⟩ : LeafV).cells.toArray) rfl (.tmp 6) (.tmp 21) 94 rfl (by kernel_rfl) rfl (by rfl) y6 rfl (lv_one _) ?_)
    have hrd := run_loadVar_mid (P := Tryd.prog) _ w.heap.size 0 94 ((⟨p.k, p.v, (i : Int), pa, WL.length, pc, WL⟩ : LeafV).cells.toArray : Array Value).toList _ (rangeAt_row5 (setRow_heap _ _ _ _ _ _ y6)) Tryd.underlying94 rfl (by kernel_rfl)
    refine bodyPost_ret (v := .agg (⟨p.k, p.v, (i : Int), pa, WL.length, pc, WL⟩ : LeafV).cells.toArray) ?_ rfl ?_
    · simp [results, Tryd.results79, asAddr]
      exact hrd
    exact ⟨(⟨p.k, p.v, (i : Int), pa, WL.length, pc, WL⟩ : LeafV), rfl, by rw [HMK.out]; rfl, hheld.same (SameT.setRowT (by decide) y6), below_setRow hbel (Nat.le_refl _) _⟩
end Go.Proofs.YtfikbaoiialfeaaDoor
