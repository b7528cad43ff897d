/- The document's stands: does a leaf of a proof come to the root. -/
import Derived.Test.YtfikbaoiialfeaaDoorVal1
import Derived.BigRegion
import Derived.RegionTactic
import Derived.BigQuiet
import Derived.Deep.QuietTactic
import Derived.Deep.MidRow
import Derived.LoopTactic
import Derived.BigFrame
import Derived.WalkKit
import Derived.ProofKit
import Derived.Handy
import Derived.Below
import Derived.Lib.Hide
import Derived.IntWalk
import Derived.Outline
import Derived.WalkLawsBesides
import Derived.WalkSpells
namespace Go.Proofs.YtfikbaoiialfeaaDoor
open Go.RowKit
attribute [local go_sem] strV
set_option linter.unusedVariables false
set_option maxRecDepth 100000 in
set_option maxHeartbeats 6400000 in
theorem stands_any (q : List UInt8) (hq : q.length = 32) (ct : Int) (a : Option Addr) (n cap : Nat) (xs : List LeafV) (k : Nat) (w : World) (h : LvsAt w a xs) (hn : xs.length = n) (hnm : n ≤ cap ∧ cap ≤ maxLen) (hM : mayPfB ct xs = true) (hkl : k < xs.length) :
    Calls Tryd.prog 80 #[.agg (hrow q), .agg #[.int .i64 ct, .slice a n cap], .int .i64 (k : Nat)] w fun e w' => e = .returned (.bool (standB q ct xs[k])) ∧ Below w.heap.size w w' := by
  obtain ⟨hc0, hc1, hn2⟩ := may_few hM
  obtain ⟨hcap, hcm⟩ := hnm
  unfold maxLen at hcm
  have hlt : k < n := by omega
  have hz0 := al2_0 w (.cells (hrow q) 25) (.cells #[.int .i64 ct, .slice a n cap] 46)
  have hz1 := al2_1 w (.cells (hrow q) 25) (.cells #[.int .i64 ct, .slice a n cap] 46)
  have hbA := al2_below w (.cells (hrow q) 25) (.cells #[.int .i64 ct, .slice a n cap] 46)
  obtain ⟨b1, o1, rfl, hb1, hg1⟩ := lv_range h.row hkl
  have hxk := h.each xs[k] (List.getElem_mem hkl)
  have hfit := may_leaf hM (List.getElem_mem hkl)
  obtain ⟨lf, hx9⟩ : ∃ p, xs[k] = p := ⟨_, rfl⟩
  rw [hx9] at hg1 hxk hfit ⊢
  obtain ⟨N, rfl⟩ : ∃ m : Nat, ct = m := ⟨ct.toNat, by omega⟩
  obtain ⟨I, hI⟩ : ∃ m : Nat, lf.idx = m := ⟨lf.idx.toNat, by omega⟩
  have hpd : lf.path.length = deepN N I := by
    have h9 := hfit.2.2.2.2.2.2
    unfold deepI at h9
    rw [hI, insB_iff.2 ⟨by omega, by omega, by omega⟩] at h9
    have h8 : (lf.path.length : Int) = (deepN N I : Nat) := by simpa using h9
    omega
  have n0 : (0 : Int) ≤ (k : Int) := by omega
  have n1 : (k : Int) < (n : Int) := by omega
  have n2 : ((k : Nat) : Int).toNat = k := by omega
  have HI := Lib.hid hI
  have hIN : I < N := by omega
  have HPD := Lib.hid hpd
  have HIN := Lib.hid (And.intro hIN (And.intro hc1 hfit))
  clear hx9 hn hM hkl hI hpd hIN hc1 hfit hn2 hc0
  go_enter Tryd.func80, Tryd.ntmps80
  go_upto_region 1 with fail
  refine wp_nameE _ (fun W1 hX => ?_)
  have hQ : W1.heap[w.heap.size]? = some (.cells (hrow q) 25 (0, 0)) := by rw [hX]; exact hz0
  have hP : W1.heap[w.heap.size + 1]? = some (.cells #[.int .i64 (N : Int), .slice (some ⟨b1, o1, none⟩) n cap] 46 (0, 0)) := by rw [hX]; exact hz1
  have hbel : Below w.heap.size w W1 := by rw [hX]; exact hbA
  clear hX hz0 hz1 hbA
  have p1 : W1.cell? ⟨w.heap.size + 1, 1, none⟩ = some (.slice (some ⟨b1, o1, none⟩) n cap) := cell_heap hP 1
  have hg1 : W1.rangeAt b1 (o1 + k * 4) lf.cells := fun j v hv => by rw [hbel.cell (p := ⟨b1, o1 + k * 4 + j, none⟩) hb1]; exact hg1 j v hv
  have hxk := hxk.below hbel
  go_upto_region 2 with (first | (refine wpList_load_mid rfl 94 (.tmp 13) rfl b1 _ rfl lf.cells _ hg1 Tryd.underlying94 rfl (by rfl) ?_) | (refine wpList_storeRowTo (Z := lf.cells.toArray) rfl (.tmp 7) (.tmp 14) 94 rfl (by kernel_rfl) rfl (by rfl) (heap_push _ _ _) rfl (lv_one lf) ?_))
  refine wp_nameE _ (fun W4 hX => ?_)
  have hb4 : Below W1.heap.size W1 W4 := by rw [hX]; exact below_setRow (Below.alloc (Below.refl _ _) (Nat.le_refl _) _) (Nat.le_refl _) _
  have hx : W4.heap[W1.heap.size]? = some (.cells lf.cells.toArray 94 (0, 0)) := by rw [hX]; exact setRow_heap _ _ _ _ _ _ (heap_push _ _ _)
  clear hX p1
  have hQ := cells_of hQ hb4 (Array.getElem?_eq_some_iff.1 hQ).1
  have hP := cells_of hP hb4 (Array.getElem?_eq_some_iff.1 hP).1
  have hbel := hbel.trans (hb4.mono hbel.size)
  have hxk := hxk.below hb4
  obtain ⟨g4, hg4⟩ : ∃ g, W1.heap.size = g := ⟨_, rfl⟩
  rw [hg4] at hx
  simp only [hg4]
  clear hg4 hb4 hg1
  have hxl := (Array.getElem?_eq_some_iff.1 hx).1
  have hPl := (Array.getElem?_eq_some_iff.1 hP).1
  have hQl := (Array.getElem?_eq_some_iff.1 hQ).1
  have CL := fun W => refLeaf_any lf.key lf.val W (by have := HIN.out; omega) (by have := HIN.out; omega)
  obtain ⟨z, hz⟩ : ∃ z, leafD lf.d = z := ⟨_, rfl⟩
  have hzl : leafF lf.key lf.val = z.1 := by rw [← hz]; rfl
  simp only [hzl] at CL
  have CL := fun W (_ : Below W4.heap.size W4 W) => CL W
  have CF := fun W (hb : Below W4.heap.size W4 W) => refFoldN_any N I z lf.path lf.pa lf.pn lf.pc W HIN.out.1 (by have := HIN.out; omega) HPD.out hxk.len hxk.cap hxk.capM (hxk.row.below hb)
  obtain ⟨FX, hFX⟩ : ∃ F, foldH N I z lf.path = F := ⟨_, rfl⟩
  simp only [hFX] at CF
  have CR := fun W => refRoot_any (N : Int) FX.1 W FX.2
  have hRl := rootF_len (N : Int) FX.1
  obtain ⟨RT, hRT⟩ : ∃ F, rootF (N : Int) FX.1 = F := ⟨_, rfl⟩
  rw [hRT] at hRl
  simp only [hRT] at CR
  obtain ⟨sb, hsb⟩ : ∃ s, (RT == q) = s := ⟨_, rfl⟩
  have hEQ := fun V : World => (run_equal_hash V 25 RT q hRl hq Tryd.underlying25 Tryd.underlying5 (by kernel_rfl) : (Op.equalIn 10000 25 (.agg (hrow RT)) (.agg (hrow q))).run Tryd.prog V = .ok (RT == q) V)
  simp only [hsb] at hEQ
  have HST : Hid (standB q (N : Int) lf = sb) := Lib.hid (by
    unfold standB comeD
    rw [← hsb, ← hRT, ← hFX, ← hz]
    show (rootF (N : Int) (foldH (N : Int).toNat lf.idx.toNat (leafD lf.d) lf.path).1 == q) = _
    rw [HI.out]; rfl)
  clear hz hzl hFX hRT hsb
  have hsF : (hrow FX.1).size = 32 := by rw [hrow_size]; exact FX.2
  have hoF := hrow_one FX.1
  have cxi : lf.cells.toArray = #[.string lf.key, .string lf.val, .int .i64 (I : Int), .slice lf.pa lf.pn lf.pc] := by unfold LeafV.cells; rw [HI.out]
  rw [cxi] at hx
  clear cxi
  refine wp_region_stateG (fun D x W => (D 0 = true → x 0 = .pointer (some ⟨w.heap.size + 1, 0, none⟩)) ∧ (D 1 = true → x 1 = .int .i64 (N : Int)) ∧ (D 2 = true → x 2 = .pointer (some ⟨g4, 2, none⟩)) ∧ (D 3 = true → x 3 = .int .i64 (I : Int)) ∧ (D 4 = true → x 4 = .pointer (some ⟨g4, 0, none⟩)) ∧ (D 5 = true → x 5 = .string lf.key) ∧ (D 6 = true → x 6 = .pointer (some ⟨g4, 1, none⟩)) ∧ (D 7 = true → x 7 = .string lf.val) ∧ (D 8 = true → x 8 = .agg (hrow z.1)) ∧ (D 9 = true → x 9 = .pointer (some ⟨g4, 3, none⟩)) ∧ (D 10 = true → x 10 = .slice lf.pa lf.pn lf.pc) ∧ (D 11 = true → x 11 = .tuple #[.agg (hrow FX.1), .bool true]) ∧ (D 12 = true → x 12 = .tuple #[.agg (hrow FX.1), .bool true]) ∧ (D 13 = true → x 13 = .agg (hrow FX.1)) ∧ (D 14 = true → x 14 = .bool true) ∧ (D 15 = true → ∃ g, x 15 = .pointer (some ⟨g, 0, none⟩) ∧ W4.heap.size ≤ g ∧ W.heap[g]? = some (.cells (bif D 16 then hrow FX.1 else #[Value.int .u8 0, Value.int .u8 0, Value.int .u8 0, Value.int .u8 0, Value.int .u8 0, Value.int .u8 0, Value.int .u8 0, Value.int .u8 0, Value.int .u8 0, Value.int .u8 0, Value.int .u8 0, Value.int .u8 0, Value.int .u8 0, Value.int .u8 0, Value.int .u8 0, Value.int .u8 0, Value.int .u8 0, Value.int .u8 0, Value.int .u8 0, Value.int .u8 0, Value.int .u8 0, Value.int .u8 0, Value.int .u8 0, Value.int .u8 0, Value.int .u8 0, Value.int .u8 0, Value.int .u8 0, Value.int .u8 0, Value.int .u8 0, Value.int .u8 0, Value.int .u8 0, Value.int .u8 0]) 25 (0, 0))) ∧ (D 16 = true → D 15 = true) ∧ (D 17 = true → x 17 = .bool true) ∧ Below W4.heap.size W4 W) (by kernel_rfl) (by kernel_rfl) (by kernel_rfl) (by kernel_rfl) (fun x => by simp only [fillFrom, Act.put, List.setIfInBounds_toArray, List.set_cons_succ, List.set_cons_zero, Nat.zero_add, Nat.reduceAdd]; rfl) ?_ ?_ ?_
  case refine_1 =>
    exact fun x => ⟨(fun h => by cases h), (fun h => by cases h), (fun h => by cases h), (fun h => by cases h), (fun h => by cases h), (fun h => by cases h), (fun h => by cases h), (fun h => by cases h), (fun h => by cases h), (fun h => by cases h), (fun h => by cases h), (fun h => by cases h), (fun h => by cases h), (fun h => by cases h), (fun h => by cases h), (fun h => by cases h), (fun h => by cases h), (fun h => by cases h), (Below.refl _ _).drew⟩
  case refine_2 =>
    refine ⟨?_, ?_, ?_, ?_, ?_, ?_, ?_, ?_, ?_, ?_, ?_, ?_, ?_, ?_, ?_, ?_, ?_, ?_, trivial⟩
    · intro D x w' hD hI hw hcl
      obtain ⟨i0, i1, i2, i3, i4, i5, i6, i7, i8, i9, i10, i11, i12, i13, i14, i15, i16, i17, iB⟩ := hI.out
      clear hw
      go_wp2_with fail
      refine gPost_mk (v := .pointer (some ⟨w.heap.size + 1, 0, none⟩)) rfl rfl ?_
      exact ⟨⟨(fun _ => rfl), i1, i2, i3, i4, i5, i6, i7, i8, i9, i10, i11, i12, i13, i14, i15, i16, i17, iB⟩⟩
    · intro D x w' hD hI hw hcl
      obtain ⟨i0, i1, i2, i3, i4, i5, i6, i7, i8, i9, i10, i11, i12, i13, i14, i15, i16, i17, iB⟩ := hI.out
      have d0 : x 0 = .pointer (some ⟨w.heap.size + 1, 0, none⟩) := i0 (hw 0 rfl)
      clear hw
      have hpc := cells_of hP iB hPl
      have c0 : w'.cell? ⟨w.heap.size + 1, 0, none⟩ = some (.int .i64 (N : Int)) := cell_heap hpc 0
      go_wp2_with fail
      refine gPost_mk (v := .int .i64 (N : Int)) rfl rfl ?_
      exact ⟨⟨i0, (fun _ => rfl), i2, i3, i4, i5, i6, i7, i8, i9, i10, i11, i12, i13, i14, i15, i16, i17, iB⟩⟩
    · intro D x w' hD hI hw hcl
      obtain ⟨i0, i1, i2, i3, i4, i5, i6, i7, i8, i9, i10, i11, i12, i13, i14, i15, i16, i17, iB⟩ := hI.out
      clear hw
      go_wp2_with fail
      refine gPost_mk (v := .pointer (some ⟨g4, 2, none⟩)) rfl rfl ?_
      exact ⟨⟨i0, i1, (fun _ => rfl), i3, i4, i5, i6, i7, i8, i9, i10, i11, i12, i13, i14, i15, i16, i17, iB⟩⟩
    · intro D x w' hD hI hw hcl
      obtain ⟨i0, i1, i2, i3, i4, i5, i6, i7, i8, i9, i10, i11, i12, i13, i14, i15, i16, i17, iB⟩ := hI.out
      have d2 : x 2 = .pointer (some ⟨g4, 2, none⟩) := i2 (hw 2 rfl)
      clear hw
      have hgc := cells_of hx iB hxl
      have c2 : w'.cell? ⟨g4, 2, none⟩ = some (.int .i64 (I : Int)) := cell_heap hgc 2
      go_wp2_with fail
      refine gPost_mk (v := .int .i64 (I : Int)) rfl rfl ?_
      exact ⟨⟨i0, i1, i2, (fun _ => rfl), i4, i5, i6, i7, i8, i9, i10, i11, i12, i13, i14, i15, i16, i17, iB⟩⟩
    · intro D x w' hD hI hw hcl
      obtain ⟨i0, i1, i2, i3, i4, i5, i6, i7, i8, i9, i10, i11, i12, i13, i14, i15, i16, i17, iB⟩ := hI.out
      clear hw
      go_wp2_with fail
      refine gPost_mk (v := .pointer (some ⟨g4, 0, none⟩)) rfl rfl ?_
      exact ⟨⟨i0, i1, i2, i3, (fun _ => rfl), i5, i6, i7, i8, i9, i10, i11, i12, i13, i14, i15, i16, i17, iB⟩⟩
    · intro D x w' hD hI hw hcl
      obtain ⟨i0, i1, i2, i3, i4, i5, i6, i7, i8, i9, i10, i11, i12, i13, i14, i15, i16, i17, iB⟩ := hI.out
      have d4 : x 4 = .pointer (some ⟨g4, 0, none⟩) := i4 (hw 4 rfl)
      clear hw
      have hgc := cells_of hx iB hxl
      have c0 : w'.cell? ⟨g4, 0, none⟩ = some (.string lf.key) := cell_heap hgc 0
      go_wp2_with fail
      refine gPost_mk (v := .string lf.key) rfl rfl ?_
      exact ⟨⟨i0, i1, i2, i3, i4, (fun _ => rfl), i6, i7, i8, i9, i10, i11, i12, i13, i14, i15, i16, i17, iB⟩⟩
    · intro D x w' hD hI hw hcl
      obtain ⟨i0, i1, i2, i3, i4, i5, i6, i7, i8, i9, i10, i11, i12, i13, i14, i15, i16, i17, iB⟩ := hI.out
      clear hw
      go_wp2_with fail
      refine gPost_mk (v := .pointer (some ⟨g4, 1, none⟩)) rfl rfl ?_
      exact ⟨⟨i0, i1, i2, i3, i4, i5, (fun _ => rfl), i7, i8, i9, i10, i11, i12, i13, i14, i15, i16, i17, iB⟩⟩
    · intro D x w' hD hI hw hcl
      obtain ⟨i0, i1, i2, i3, i4, i5, i6, i7, i8, i9, i10, i11, i12, i13, i14, i15, i16, i17, iB⟩ := hI.out
      have d6 : x 6 = .pointer (some ⟨g4, 1, none⟩) := i6 (hw 6 rfl)
      clear hw
      have hgc := cells_of hx iB hxl
      have c1 : w'.cell? ⟨g4, 1, none⟩ = some (.string lf.val) := cell_heap hgc 1
      go_wp2_with fail
      refine gPost_mk (v := .string lf.val) rfl rfl ?_
      exact ⟨⟨i0, i1, i2, i3, i4, i5, i6, (fun _ => rfl), i8, i9, i10, i11, i12, i13, i14, i15, i16, i17, iB⟩⟩
    · intro D x w' hD hI hw hcl
      obtain ⟨i0, i1, i2, i3, i4, i5, i6, i7, i8, i9, i10, i11, i12, i13, i14, i15, i16, i17, iB⟩ := hI.out
      have d5 : x 5 = .string lf.key := i5 (hw 5 rfl)
      have d7 : x 7 = .string lf.val := i7 (hw 7 rfl)
      clear hw
      have CC := CL w' iB
      go_wp2_with (go_at_call 13; refine (CC).mono ?_; rintro e wx ⟨rfl, hbx⟩)
      refine gPost_mk (v := .agg (hrow z.1)) rfl rfl ?_
      exact ⟨⟨i0, i1, i2, i3, i4, i5, i6, i7, (fun _ => rfl), i9, i10, i11, i12, i13, i14, (fun h => by obtain ⟨g, e1, e2, e3⟩ := i15 h; exact ⟨g, e1, e2, cells_of e3 hbx (Array.getElem?_eq_some_iff.1 e3).1⟩), i16, i17, iB.trans (hbx.mono iB.size)⟩⟩
    · intro D x w' hD hI hw hcl
      obtain ⟨i0, i1, i2, i3, i4, i5, i6, i7, i8, i9, i10, i11, i12, i13, i14, i15, i16, i17, iB⟩ := hI.out
      clear hw
      go_wp2_with fail
      refine gPost_mk (v := .pointer (some ⟨g4, 3, none⟩)) rfl rfl ?_
      exact ⟨⟨i0, i1, i2, i3, i4, i5, i6, i7, i8, (fun _ => rfl), i10, i11, i12, i13, i14, i15, i16, i17, iB⟩⟩
    · intro D x w' hD hI hw hcl
      obtain ⟨i0, i1, i2, i3, i4, i5, i6, i7, i8, i9, i10, i11, i12, i13, i14, i15, i16, i17, iB⟩ := hI.out
      have d9 : x 9 = .pointer (some ⟨g4, 3, none⟩) := i9 (hw 9 rfl)
      clear hw
      have hgc := cells_of hx iB hxl
      have c3 : w'.cell? ⟨g4, 3, none⟩ = some (.slice lf.pa lf.pn lf.pc) := cell_heap hgc 3
      go_wp2_with fail
      refine gPost_mk (v := .slice lf.pa lf.pn lf.pc) rfl rfl ?_
      exact ⟨⟨i0, i1, i2, i3, i4, i5, i6, i7, i8, i9, (fun _ => rfl), i11, i12, i13, i14, i15, i16, i17, iB⟩⟩
    · intro D x w' hD hI hw hcl
      obtain ⟨i0, i1, i2, i3, i4, i5, i6, i7, i8, i9, i10, i11, i12, i13, i14, i15, i16, i17, iB⟩ := hI.out
      have d1 : x 1 = .int .i64 (N : Int) := i1 (hw 1 rfl)
      have d3 : x 3 = .int .i64 (I : Int) := i3 (hw 3 rfl)
      have d8 : x 8 = .agg (hrow z.1) := i8 (hw 8 rfl)
      have d10 : x 10 = .slice lf.pa lf.pn lf.pc := i10 (hw 10 rfl)
      clear hw
      have CC := CF w' iB
      go_wp2_with (go_at_call 11; refine (CC).mono ?_; rintro e wx ⟨rfl, hbx⟩)
      refine gPost_mk (v := .tuple #[.agg (hrow FX.1), .bool true]) rfl rfl ?_
      exact ⟨⟨i0, i1, i2, i3, i4, i5, i6, i7, i8, i9, i10, (fun _ => rfl), i12, i13, i14, (fun h => by obtain ⟨g, e1, e2, e3⟩ := i15 h; exact ⟨g, e1, e2, cells_of e3 hbx (Array.getElem?_eq_some_iff.1 e3).1⟩), i16, i17, iB.trans (hbx.mono iB.size)⟩⟩
    · intro D x w' hD hI hw hcl
      obtain ⟨i0, i1, i2, i3, i4, i5, i6, i7, i8, i9, i10, i11, i12, i13, i14, i15, i16, i17, iB⟩ := hI.out
      have d11 : x 11 = .tuple #[.agg (hrow FX.1), .bool true] := i11 (hw 11 rfl)
      clear hw
      go_wp2_with fail
      refine gPost_mk (v := .tuple #[.agg (hrow FX.1), .bool true]) rfl rfl ?_
      exact ⟨⟨i0, i1, i2, i3, i4, i5, i6, i7, i8, i9, i10, i11, (fun _ => rfl), i13, i14, i15, i16, i17, iB⟩⟩
    · intro D x w' hD hI hw hcl
      obtain ⟨i0, i1, i2, i3, i4, i5, i6, i7, i8, i9, i10, i11, i12, i13, i14, i15, i16, i17, iB⟩ := hI.out
      have d12 : x 12 = .tuple #[.agg (hrow FX.1), .bool true] := i12 (hw 12 rfl)
      clear hw
      go_wp2_with fail
      refine gPost_mk (v := .agg (hrow FX.1)) rfl rfl ?_
      exact ⟨⟨i0, i1, i2, i3, i4, i5, i6, i7, i8, i9, i10, i11, i12, (fun _ => rfl), i14, i15, i16, i17, iB⟩⟩
    · intro D x w' hD hI hw hcl
      obtain ⟨i0, i1, i2, i3, i4, i5, i6, i7, i8, i9, i10, i11, i12, i13, i14, i15, i16, i17, iB⟩ := hI.out
      have d12 : x 12 = .tuple #[.agg (hrow FX.1), .bool true] := i12 (hw 12 rfl)
      clear hw
      go_wp2_with fail
      refine gPost_mk (v := .bool true) rfl rfl ?_
      exact ⟨⟨i0, i1, i2, i3, i4, i5, i6, i7, i8, i9, i10, i11, i12, i13, (fun _ => rfl), i15, i16, i17, iB⟩⟩
    · intro D x w' hD hI hw hcl
      obtain ⟨i0, i1, i2, i3, i4, i5, i6, i7, i8, i9, i10, i11, i12, i13, i14, i15, i16, i17, iB⟩ := hI.out
      clear hw
      have hs : D 16 = false := by
        cases h : D 16 with
        | false => rfl
        | true => rw [i16 h] at hD; cases hD
      go_wp2_with fail
      refine gPost_mk (v := .pointer (some ⟨w'.heap.size, 0, none⟩)) rfl rfl ?_
      exact ⟨⟨i0, i1, i2, i3, i4, i5, i6, i7, i8, i9, i10, i11, i12, i13, i14, (fun _ => ⟨w'.heap.size, rfl, iB.size, by show _ = some (Obj.cells (bif D 16 then _ else _) _ (0, 0)); rw [hs]; exact heap_pushF _ _ _⟩), (fun _ => rfl), i17, Below.alloc iB iB.size _⟩⟩
    · intro D x w' hD hI hw hcl
      obtain ⟨i0, i1, i2, i3, i4, i5, i6, i7, i8, i9, i10, i11, i12, i13, i14, i15, i16, i17, iB⟩ := hI.out
      have d13 : x 13 = .agg (hrow FX.1) := i13 (hw 13 rfl)
      have hD15 : D 15 = true := hw 15 rfl
      obtain ⟨g, d15, e2, e3⟩ := i15 hD15
      clear hw
      simp only [d13, d15]
      rw [hD] at e3
      have e3 : w'.heap[g]? = some (.cells #[Value.int .u8 0, Value.int .u8 0, Value.int .u8 0, Value.int .u8 0, Value.int .u8 0, Value.int .u8 0, Value.int .u8 0, Value.int .u8 0, Value.int .u8 0, Value.int .u8 0, Value.int .u8 0, Value.int .u8 0, Value.int .u8 0, Value.int .u8 0, Value.int .u8 0, Value.int .u8 0, Value.int .u8 0, Value.int .u8 0, Value.int .u8 0, Value.int .u8 0, Value.int .u8 0, Value.int .u8 0, Value.int .u8 0, Value.int .u8 0, Value.int .u8 0, Value.int .u8 0, Value.int .u8 0, Value.int .u8 0, Value.int .u8 0, Value.int .u8 0, Value.int .u8 0, Value.int .u8 0] 25 (0, 0)) := e3
      go_wp2_with (refine wpList_storeRowTo (Z := hrow FX.1) rfl (.tmp 8) (.tmp 28) 25 rfl (by rw [hsF]; kernel_rfl) rfl (by rfl) e3 (by rw [hsF]; rfl) hoF ?_)
      refine gPost_no rfl ?_
      exact ⟨⟨i0, i1, i2, i3, i4, i5, i6, i7, i8, i9, i10, i11, i12, i13, i14, (fun _ => ⟨g, d15, e2, setRow_heap _ _ _ _ _ _ e3⟩), (fun _ => hD15), i17, below_setRow iB e2 _⟩⟩
    · intro D x w' hD hI hw hcl
      obtain ⟨i0, i1, i2, i3, i4, i5, i6, i7, i8, i9, i10, i11, i12, i13, i14, i15, i16, i17, iB⟩ := hI.out
      have d14 : x 14 = .bool true := i14 (hw 14 rfl)
      clear hw
      go_wp2_with fail
      refine gPost_mk (v := .bool true) rfl rfl ?_
      exact ⟨⟨i0, i1, i2, i3, i4, i5, i6, i7, i8, i9, i10, i11, i12, i13, i14, i15, i16, (fun _ => rfl), iB⟩⟩
  · intro w5 X hI
    obtain ⟨j0, j1, j2, j3, j4, j5, j6, j7, j8, j9, j10, j11, j12, j13, j14, j15, j16, j17, jB⟩ := hI
    have f17 : X 17 = .bool true := j17 rfl
    obtain ⟨g, hx15, hBg, hT⟩ := j15 rfl
    have hT : w5.heap[g]? = some (.cells (hrow FX.1) 25 (0, 0)) := hT
    clear j0 j1 j2 j3 j4 j5 j6 j7 j8 j9 j10 j11 j12 j13 j14 j15 j16 j17
    simp only [f17, hx15]
    have hQ := cells_of hQ jB hQl
    have hP := cells_of hP jB hPl
    have hbel := hbel.trans (jB.mono hbel.size)
    have hTl := (Array.getElem?_eq_some_iff.1 hT).1
    have hPl := (Array.getElem?_eq_some_iff.1 hP).1
    have hQl := (Array.getElem?_eq_some_iff.1 hQ).1
    have CR := fun W (_ : Below w5.heap.size w5 W) => CR W
    clear CL CF hx hxl jB f17 hx15 hsF hoF hxk
    go_upto_region 3 with fail
    refine wp_region_facts [Fact.eq (.bool true), Fact.eq (.bool true), Fact.eq (.pointer (some ⟨w.heap.size + 1, 0, none⟩)), Fact.eq (.int .i64 (N : Int)), Fact.eq (.agg (hrow FX.1)), Fact.eq (.agg (hrow RT)), Fact.eq (.agg (hrow q)), Fact.eq (.bool sb), Fact.eq (.bool sb), Fact.eq (.bool sb)] (by kernel_rfl) (by kernel_rfl) (by kernel_rfl) (by kernel_rfl) (fun x => by simp only [fillFrom, Act.put, List.setIfInBounds_toArray, List.set_cons_succ, List.set_cons_zero]; rfl) ?_ ?_
    · refine ⟨?_, ?_, ?_, ?_, ?_, ?_, ?_, ?_, ?_, ?_, trivial⟩
      · intro x w' hbw hd
        clear hd
        go_wp2_with fail
        exact frPost_mk rfl (by repeat (first | assumption | exact Below.refl _ _ | refine bch ?_ (by assumption) | refine Below.alloc ?_ (by simp) _)) rfl
      · intro x w' hbw hd
        have d0 : x 0 = .bool true := hd 0 rfl
        clear hd
        go_wp2_with fail
        exact frPost_mk rfl (by repeat (first | assumption | exact Below.refl _ _ | refine bch ?_ (by assumption) | refine Below.alloc ?_ (by simp) _)) rfl
      · intro x w' hbw hd
        have d1 : x 1 = .bool true := hd 1 rfl
        clear hd
        go_wp2_with fail
        exact frPost_mk rfl (by repeat (first | assumption | exact Below.refl _ _ | refine bch ?_ (by assumption) | refine Below.alloc ?_ (by simp) _)) rfl
      · intro x w' hbw hd
        have d1 : x 1 = .bool true := hd 1 rfl
        have d2 : x 2 = .pointer (some ⟨w.heap.size + 1, 0, none⟩) := hd 2 rfl
        clear hd
        have hpc := cells_of hP hbw hPl
        have c0 : w'.cell? ⟨w.heap.size + 1, 0, none⟩ = some (.int .i64 (N : Int)) := cell_heap hpc 0
        go_wp2_with (first | fail)
        exact frPost_mk rfl (by repeat (first | assumption | exact Below.refl _ _ | refine bch ?_ (by assumption) | refine Below.alloc ?_ (by simp) _)) rfl
      · intro x w' hbw hd
        have d1 : x 1 = .bool true := hd 1 rfl
        clear hd
        have hrg := hrow_range (cells_of hT hbw hTl)
        go_wp2_with (first | (refine wpList_load_midG 25 (.tmp 8) rfl g 0 rfl FX.cells _ hrg Tryd.underlying25 rfl (hash_info FX) (by first | rfl | (simp [Region.wanted, yielded, *]; done)) ?_; rw [H32.row]))
        exact frPost_mk rfl (by repeat (first | assumption | exact Below.refl _ _ | refine bch ?_ (by assumption) | refine Below.alloc ?_ (by simp) _)) rfl
      · intro x w' hbw hd
        have d1 : x 1 = .bool true := hd 1 rfl
        have d3 : x 3 = .int .i64 (N : Int) := hd 3 rfl
        have d4 : x 4 = .agg (hrow FX.1) := hd 4 rfl
        clear hd
        have CC := CR w' hbw
        go_wp2_with (first | (go_at_call 17; refine (CC).mono ?_; rintro e wx ⟨rfl, hbx⟩))
        exact frPost_mk rfl (by repeat (first | assumption | exact Below.refl _ _ | refine bch ?_ (by assumption) | refine Below.alloc ?_ (by simp) _)) rfl
      · intro x w' hbw hd
        have d1 : x 1 = .bool true := hd 1 rfl
        clear hd
        have hrg := hrow_range (show w'.heap[w.heap.size]? = some (Obj.cells (hrow (⟨q, hq⟩ : H32).1) 25 (0, 0)) from cells_of hQ hbw hQl)
        go_wp2_with (first | (refine wpList_load_midG 25 (.tmp 3) rfl w.heap.size 0 rfl (H32.cells ⟨q, hq⟩) _ hrg Tryd.underlying25 rfl (hash_info (⟨q, hq⟩ : H32)) (by first | rfl | (simp [Region.wanted, yielded, *]; done)) ?_; rw [show (H32.cells ⟨q, hq⟩).toArray = hrow q from rfl]))
        exact frPost_mk rfl (by repeat (first | assumption | exact Below.refl _ _ | refine bch ?_ (by assumption) | refine Below.alloc ?_ (by simp) _)) rfl
      · intro x w' hbw hd
        have d1 : x 1 = .bool true := hd 1 rfl
        have d5 : x 5 = .agg (hrow RT) := hd 5 rfl
        have d6 : x 6 = .agg (hrow q) := hd 6 rfl
        clear hd
        have hE := hEQ w'
        go_wp2_with (first | fail)
        exact frPost_mk rfl (by repeat (first | assumption | exact Below.refl _ _ | refine bch ?_ (by assumption) | refine Below.alloc ?_ (by simp) _)) rfl
      · intro x w' hbw hd
        have d1 : x 1 = .bool true := hd 1 rfl
        have d7 : x 7 = .bool sb := hd 7 rfl
        clear hd
        go_wp2_with fail
        exact frPost_mk rfl (by repeat (first | assumption | exact Below.refl _ _ | refine bch ?_ (by assumption) | refine Below.alloc ?_ (by simp) _)) rfl
      · intro x w' hbw hd
        have d8 : x 8 = .bool sb := hd 8 rfl
        clear hd
        go_wp2_with fail
        exact frPost_mk rfl (by repeat (first | assumption | exact Below.refl _ _ | refine bch ?_ (by assumption) | refine Below.alloc ?_ (by simp) _)) rfl
    intro x9 w6 hb6 hd
    have d9 : x9 9 = .bool sb := hd 9 (by decide)
    clear hd
    simp only [Nat.zero_add, Nat.reduceAdd, d9]
    have hbel := hbel.trans (hb6.mono hbel.size)
    go_wp2
    go_ret
    exact ⟨by rw [HST.out]; first | rfl | simp, hbel⟩
end Go.Proofs.YtfikbaoiialfeaaDoor
