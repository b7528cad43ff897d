/- Proofs in memory: leaves, whether two are the same, whether one may be. Proofs: whether one may be, whether one is light, its steps. Proofs: their steps, their bytes. The document's Steps (taken out of XRf6). The document's SameProof (taken out of XTx3). -/
import Derived.Test.YtfikbaoiialfeaaDoorGU
import Derived.Test.YtfikbaoiialfeaaDoorH32
import Derived.Test.YtfikbaoiialfeaaDoorTree
import Derived.Test.YtfikbaoiialfeaaDoorGD
import Derived.WalkKit
import Derived.ProofKit
import Derived.Handy
import Derived.Below
import Derived.Lib.Hide
import Derived.IntWalk
import Derived.Outline
import Derived.WalkLawsBesides
import Derived.WalkSpells
import Derived.Test.YtfikbaoiialfeaaDoorGV
import Derived.BigRegion
import Derived.RegionTactic
import Derived.BigQuiet
import Derived.Deep.QuietTactic
import Derived.Deep.MidRow
import Derived.LoopTactic
import Derived.BigFrame
import Derived.Deep.CutRange
namespace Go.Proofs.YtfikbaoiialfeaaDoor
open Go.RowKit
attribute [local go_sem] strV
set_option linter.unusedVariables false

theorem tl_eq {x y : ByteArray} : (x.toList == y.toList) = true ↔ x = y := by
  constructor
  · intro h
    simp only [beq_iff_eq, ByteArray.toList_eq] at h
    apply ByteArray.ext; apply Array.ext'; exact h
  · rintro rfl; simp
structure LeafD where
  key : ByteArray
  val : ByteArray
  idx : Int
  path : List H32
/-- A leaf as it lies in memory. -/
structure LeafV where
  key : ByteArray
  val : ByteArray
  idx : Int
  pa : Option Addr
  pn : Nat
  pc : Nat
  path : List H32
def LeafV.cells (x : LeafV) : List Value := [.string x.key, .string x.val, .int .i64 x.idx, .slice x.pa x.pn x.pc]
theorem LeafV.cells_len (x : LeafV) : x.cells.length = 4 := rfl
def LeafV.d (x : LeafV) : LeafD := ⟨x.key, x.val, x.idx, x.path⟩
structure LeafV.ok (x : LeafV) (w : World) : Prop where
  row : RowAt w x.pa (x.path.flatMap H32.cells)
  len : x.path.length = x.pn
  cap : x.pn ≤ x.pc
  capM : x.pc ≤ maxLen
  keyM : x.key.size ≤ maxLen
  valM : x.val.size ≤ maxLen
theorem LeafV.ok.below {x : LeafV} {w w' : World} (h : x.ok w) (hb : Below w.heap.size w w') : x.ok w' := ⟨h.row.below hb, h.len, h.cap, h.capM, h.keyM, h.valM⟩
structure LvsAt (w : World) (a : Option Addr) (xs : List LeafV) : Prop where
  row : RowAt w a (xs.flatMap LeafV.cells)
  each : ∀ x ∈ xs, x.ok w
theorem LvsAt.below {w w' : World} {a : Option Addr} {xs : List LeafV} (h : LvsAt w a xs) (hb : Below w.heap.size w w') : LvsAt w' a xs := ⟨h.row.below hb, fun x hx => (h.each x hx).below hb⟩
theorem LvsAt.nil (w : World) (a : Option Addr) : LvsAt w a [] := ⟨RowAt.nil _ _, fun x h => by cases h⟩
theorem lv_range {w : World} {a : Option Addr} {xs : List LeafV} (h : RowAt w a (xs.flatMap LeafV.cells)) {k : Nat} (hk : k < xs.length) :
    ∃ b off, a = some ⟨b, off, none⟩ ∧ b < w.heap.size ∧ w.rangeAt b (off + k * 4) xs[k].cells := by
  obtain ⟨b, off, ha, hb, hc⟩ := h.elem LeafV.cells_len hk (by decide)
  refine ⟨b, off, ha, hb, fun j v hv => ?_⟩
  have hj : j < 4 := by have := (List.getElem?_eq_some_iff.1 hv).1; rwa [LeafV.cells_len] at this
  rw [Nat.add_assoc, hc j hj, hv]
theorem leaf_one (key val : ByteArray) (idx : Int) (a : Option Addr) (n c : Nat) : (#[.string key, .string val, .int .i64 idx, .slice a n c] : Array Value).all (·.oneCell') = true := by
  simp [Value.oneCell']
def leafB (x y : LeafV) : Bool := (x.key.toList == y.key.toList) && (x.val.toList == y.val.toList) && (x.idx == y.idx) && hsB x.path y.path
theorem leafB_iff {x y : LeafV} : leafB x y = true ↔ x.d = y.d := by
  unfold leafB hsB LeafV.d
  simp only [Bool.and_eq_true, tl_eq, beq_iff_eq (α := Int), decide_eq_true_eq, LeafD.mk.injEq, and_assoc]
def lvsB : List LeafV → List LeafV → Bool
  | [], [] => true
  | x :: xs, y :: ys => leafB x y && lvsB xs ys
  | _, _ => false
theorem lvsB_iff : ∀ l m : List LeafV, lvsB l m = true ↔ l.map LeafV.d = m.map LeafV.d
  | [], [] => by simp [lvsB]
  | [], _ :: _ => by simp [lvsB]
  | _ :: _, [] => by simp [lvsB]
  | x :: xs, y :: ys => by
    unfold lvsB
    rw [Bool.and_eq_true, leafB_iff, lvsB_iff xs ys, List.map_cons, List.map_cons, List.cons.injEq]
theorem lvsB_ne {l m : List LeafV} (h : l.map LeafV.d ≠ m.map LeafV.d) : lvsB l m = false := by
  cases h9 : lvsB l m
  · rfl
  · exact absurd ((lvsB_iff _ _).1 h9) h
set_option maxRecDepth 100000 in
set_option maxHeartbeats 4000000 in
theorem hsEq_any (a1 a2 : Option Addr) (n1 n2 c1 c2 : Nat) (es fs : List H32) (w : World) (h1 : RowAt w a1 (es.flatMap H32.cells)) (h2 : RowAt w a2 (fs.flatMap H32.cells)) (hn : es.length = n1) (hm : fs.length = n2) (hnm : n1 ≤ maxLen) (hmm : n2 ≤ maxLen) :
    Calls Tryd.prog 108 #[.slice a1 n1 c1, .slice a2 n2 c2] w fun e w' => e = .returned (.bool (hsB es fs)) ∧ Below w.heap.size w w' := by
  by_cases hnn : n1 = n2
  · subst hnn
    obtain ⟨r, hF⟩ : ∃ r, hsB es fs = r := ⟨_, rfl⟩
    rw [hF]
    have HF := Lib.hid hF
    have HN := Lib.hid hn
    have HM := Lib.hid hm
    clear hF hn hm hmm
    unfold maxLen at hnm
    have e0 : ((n1 : Int) != (n1 : Int)) = false := by simp
    have e0n : (n1 != n1) = false := by simp
    go_enter Tryd.func108, Tryd.ntmps108
    go_upto_region 4 with fail
    go_loopw [13] (fun i wr => ∃ k : Nat, k ≤ n1 ∧ i = .int .i64 k ∧ Hid (es.take k = fs.take k) ∧ Below w.heap.size w wr) (fun i _ => n1 - (intOf i).toNat)
    case atStart => exact ⟨0, Nat.zero_le _, rfl, Lib.hid rfl, Below.refl _ _⟩
    case round =>
    obtain ⟨k, hk, rfl, HT, hbel⟩ := hrel
    by_cases hlt : k < n1
    · have d1 : decide ((k : Int) < (n1 : Int)) = true := decide_eq_true (by omega)
      have d1n : decide (k < n1) = true := decide_eq_true hlt
      have hkl : k < es.length := by rw [HN.out]; exact hlt
      have hkm : k < fs.length := by rw [HM.out]; exact hlt
      obtain ⟨b1, o1, rfl, hb1, hg1⟩ := hs_at (h1.below hbel) hkl
      obtain ⟨b2, o2, rfl, hb2, hg2⟩ := hs_at (h2.below hbel) hkm
      obtain ⟨q, hp⟩ : ∃ p, es[k] = p := ⟨_, rfl⟩
      obtain ⟨q2, hp2⟩ : ∃ p, fs[k] = p := ⟨_, rfl⟩
      rw [hp] at hg1
      rw [hp2] at hg2
      have l1 := fun m => load_hash_mid hg1 hb1 m
      have l2 := fun m => load_hash_mid hg2 hb2 m
      have hEQ := fun V : World => (run_equal_hash V 25 q.1 q2.1 q.2 q2.2 Tryd.underlying25 Tryd.underlying5 (by kernel_rfl) : (Op.equalIn 10000 25 (.agg (hrow q.1)) (.agg (hrow q2.1))).run Tryd.prog V = .ok (q.1 == q2.1) V)
      obtain ⟨eb, heb⟩ : ∃ b, (q.1 == q2.1) = b := ⟨_, rfl⟩
      simp only [heb] at hEQ
      have n0 : (0 : Int) ≤ (k : Int) := by omega
      have n1' : (k : Int) < (n1 : Int) := by omega
      have n2' : ((k : Nat) : Int).toNat = k := by omega
      cases eb
      · have hbad : r = false := by
          rw [← HF.out]
          unfold hsB
          rw [decide_eq_false_iff_not]
          intro q9
          have : q = q2 := by subst q9; rw [← hp, ← hp2]
          subst this
          simp at heb
        subst hbad
        clear heb hp hp2 hg1 hg2
        go_upto_region 6 with fail
        refine wp_region_below (by kernel_rfl) (by kernel_rfl) ?_
        repeat (first | (go_big_quiet_want; refine hload9 (v := .agg (hrow q.1)) 25 (.tmp 18) rfl (by rfl) (by rintro _ ⟨m, rfl⟩; exact l1 m) ?_; simp only [Act.put, List.setIfInBounds_toArray, List.set_cons_succ, List.set_cons_zero]; go_big_quiet_on) | (go_big_quiet_want; refine hload9 (v := .agg (hrow q2.1)) 25 (.tmp 22) rfl (by rfl) (by rintro _ ⟨m, rfl⟩; exact l2 m) ?_; simp only [Act.put, List.setIfInBounds_toArray, List.set_cons_succ, List.set_cons_zero]; go_big_quiet_on) | (go_big_quiet_step (fail)))
        intro w9 hw9
        have hb9 := beyond_below hw9
        go_wp2
        go_ret
        exact ⟨rfl, hbel.trans (hb9.mono hbel.size)⟩
      · have hsame : es.take (k + 1) = fs.take (k + 1) := by rw [List.take_succ_eq_append_getElem hkl, List.take_succ_eq_append_getElem hkm, HT.out, hp, hp2, Subtype.ext (beq_iff_eq.1 heb)]
        have HS := Lib.hid hsame
        clear heb hp hp2 hg1 hg2 hsame
        go_upto_region 6 with fail
        refine wp_region_below (by kernel_rfl) (by kernel_rfl) ?_
        repeat (first | (go_big_quiet_want; refine hload9 (v := .agg (hrow q.1)) 25 (.tmp 18) rfl (by rfl) (by rintro _ ⟨m, rfl⟩; exact l1 m) ?_; simp only [Act.put, List.setIfInBounds_toArray, List.set_cons_succ, List.set_cons_zero]; go_big_quiet_on) | (go_big_quiet_want; refine hload9 (v := .agg (hrow q2.1)) 25 (.tmp 22) rfl (by rfl) (by rintro _ ⟨m, rfl⟩; exact l2 m) ?_; simp only [Act.put, List.setIfInBounds_toArray, List.set_cons_succ, List.set_cons_zero]; go_big_quiet_on) | (go_big_quiet_step (fail)))
        intro w9 hw9
        have hb9 := beyond_below hw9
        go_wp2
        go_roundw
        case rel => exact ⟨k + 1, by omega, by go_num, HS, hbel.trans (hb9.mono hbel.size)⟩
        case measure => (simp [intOf]) <;> omega
    · have d1 : decide ((k : Int) < (n1 : Int)) = false := decide_eq_false (by omega)
      have d1n : decide (k < n1) = false := decide_eq_false hlt
      have hgood : r = true := by
        have := HT.out
        rw [List.take_of_length_le (by rw [HN.out]; omega), List.take_of_length_le (by rw [HM.out]; omega)] at this
        rw [← HF.out]; exact decide_eq_true this
      subst hgood
      go_wp2
      go_ret
      exact ⟨rfl, hbel⟩
  · have e0 : ((n1 : Int) != (n2 : Int)) = true := by simpa using fun h => hnn (by omega)
    have e0n : (n1 != n2) = true := by simpa using hnn
    rw [show hsB es fs = false from decide_eq_false (fun q => hnn (by rw [← hn, ← hm, q]))]
    clear hn hm hnn
    go_enter Tryd.func108, Tryd.ntmps108
    go_wp2
    go_ret
    exact ⟨rfl, Below.refl _ _⟩
set_option maxRecDepth 100000 in
set_option maxHeartbeats 4000000 in
theorem leafEq_any (key val : ByteArray) (idx : Int) (pa : Option Addr) (pn pc : Nat) (path : List H32) (key2 val2 : ByteArray) (idx2 : Int) (pa2 : Option Addr) (pn2 pc2 : Nat) (path2 : List H32) (w : World) (h1 : (LeafV.mk key val idx pa pn pc path).ok w) (h2 : (LeafV.mk key2 val2 idx2 pa2 pn2 pc2 path2).ok w) :
    Calls Tryd.prog 82 #[.agg #[.string key, .string val, .int .i64 idx, .slice pa pn pc], .agg #[.string key2, .string val2, .int .i64 idx2, .slice pa2 pn2 pc2]] w fun e w' => e = .returned (.bool (leafB ⟨key, val, idx, pa, pn, pc, path⟩ ⟨key2, val2, idx2, pa2, pn2, pc2, path2⟩)) ∧ Below w.heap.size w w' := by
  obtain ⟨r1, l1, c1, m1, _, _⟩ := h1
  obtain ⟨r2, l2, c2, m2, _, _⟩ := h2
  simp only at r1 l1 c1 m1 r2 l2 c2 m2
  have CE := fun W (hb : Below w.heap.size w W) => hsEq_any pa pa2 pn pn2 pc pc2 path path2 W (r1.below hb) (r2.below hb) l1 l2 (Nat.le_trans c1 m1) (Nat.le_trans c2 m2)
  obtain ⟨k0, e0⟩ : ∃ b, (key.toList == key2.toList) = b := ⟨_, rfl⟩
  obtain ⟨k1, e1⟩ : ∃ b, (val.toList == val2.toList) = b := ⟨_, rfl⟩
  obtain ⟨k2, e2⟩ : ∃ b, (idx == idx2) = b := ⟨_, rfl⟩
  obtain ⟨k3, e3⟩ : ∃ b, hsB path path2 = b := ⟨_, rfl⟩
  have hS : leafB ⟨key, val, idx, pa, pn, pc, path⟩ ⟨key2, val2, idx2, pa2, pn2, pc2, path2⟩ = (k0 && k1 && k2 && k3) := by unfold leafB; simp only [e0, e1, e2, e3]
  obtain ⟨r, hr⟩ : ∃ r, (k0 && k1 && k2 && k3) = r := ⟨_, rfl⟩
  rw [hS, hr]
  simp only [e3] at CE
  have HR := Lib.hid hr
  clear hS hr e3 l1 l2
  have hg0 := al2_0 w (.cells #[.string key, .string val, .int .i64 idx, .slice pa pn pc] 94) (.cells #[.string key2, .string val2, .int .i64 idx2, .slice pa2 pn2 pc2] 94)
  have hh0 := al2_1 w (.cells #[.string key, .string val, .int .i64 idx, .slice pa pn pc] 94) (.cells #[.string key2, .string val2, .int .i64 idx2, .slice pa2 pn2 pc2] 94)
  have hbA := al2_below w (.cells #[.string key, .string val, .int .i64 idx, .slice pa pn pc] 94) (.cells #[.string key2, .string val2, .int .i64 idx2, .slice pa2 pn2 pc2] 94)
  go_enter Tryd.func82, Tryd.ntmps82
  go_upto_region 1 with fail
  refine wp_nameE _ (fun W1 hX => ?_)
  have hg : W1.heap[w.heap.size]? = some (.cells #[.string key, .string val, .int .i64 idx, .slice pa pn pc] 94 (0, 0)) := by rw [hX]; exact hg0
  have hh : W1.heap[w.heap.size + 1]? = some (.cells #[.string key2, .string val2, .int .i64 idx2, .slice pa2 pn2 pc2] 94 (0, 0)) := by rw [hX]; exact hh0
  have hbel : Below w.heap.size w W1 := by rw [hX]; exact hbA
  clear hX hg0 hh0 hbA
  have hgl : w.heap.size < W1.heap.size := (Array.getElem?_eq_some_iff.1 hg).1
  have hhl : w.heap.size + 1 < W1.heap.size := (Array.getElem?_eq_some_iff.1 hh).1
  have q0 := cell_heap hg 0; have q1 := cell_heap hg 1; have q2 := cell_heap hg 2; have q3 := cell_heap hg 3; have r0 := cell_heap hh 0; have r1 := cell_heap hh 1; have r2 := cell_heap hh 2; have r3 := cell_heap hh 3
  cases k0
  · obtain rfl : false = r := by rw [← HR.out]; simp
    go_wp2
    go_ret
    exact ⟨rfl, hbel⟩
  cases k1
  · obtain rfl : false = r := by rw [← HR.out]; simp
    go_wp2
    go_ret
    exact ⟨rfl, hbel⟩
  cases k2
  · obtain rfl : false = r := by rw [← HR.out]; simp
    go_wp2
    go_ret
    exact ⟨rfl, hbel⟩
  obtain rfl : k3 = r := by rw [← HR.out]; simp
  go_wp2_with (go_at_call 108; refine (CE _ hbel).mono ?_; rintro e w2 ⟨rfl, hb⟩; have hbel := hbel.trans (hb.mono hbel.size))
  go_ret
  exact ⟨rfl, hbel⟩
set_option maxRecDepth 100000 in
set_option maxHeartbeats 4000000 in
theorem lvsEq_any (a1 a2 : Option Addr) (n1 n2 c1 c2 : Nat) (es fs : List LeafV) (w : World) (h1 : LvsAt w a1 es) (h2 : LvsAt w a2 fs) (hn : es.length = n1) (hm : fs.length = n2) (hnm : n1 ≤ maxLen) (hmm : n2 ≤ maxLen) :
    Calls Tryd.prog 81 #[.slice a1 n1 c1, .slice a2 n2 c2, .func (.func 82) #[] #[]] w fun e w' => e = .returned (.bool (lvsB es fs)) ∧ Below w.heap.size w w' := by
  by_cases hnn : n1 = n2
  · subst hnn
    obtain ⟨r, hF⟩ : ∃ r, lvsB es fs = r := ⟨_, rfl⟩
    rw [hF]
    have HF := Lib.hid hF
    have HN := Lib.hid hn
    have HM := Lib.hid hm
    clear hF hn hm hmm
    unfold maxLen at hnm
    have e0 : ((n1 : Int) != (n1 : Int)) = false := by simp
    have e0n : (n1 != n1) = false := by simp
    go_enter Tryd.func81, Tryd.ntmps81
    go_upto_region 4 with fail
    go_loopw [17] (fun i wr => ∃ k : Nat, k ≤ n1 ∧ i = .int .i64 k ∧ Hid ((es.take k).map LeafV.d = (fs.take k).map LeafV.d) ∧ Below w.heap.size w wr) (fun i _ => n1 - (intOf i).toNat)
    case atStart => exact ⟨0, Nat.zero_le _, rfl, Lib.hid rfl, Below.refl _ _⟩
    case round =>
    obtain ⟨k, hk, rfl, HT, hbel⟩ := hrel
    by_cases hlt : k < n1
    · have d1 : decide ((k : Int) < (n1 : Int)) = true := decide_eq_true (by omega)
      have d1n : decide (k < n1) = true := decide_eq_true hlt
      have hkl : k < es.length := by rw [HN.out]; exact hlt
      have hkm : k < fs.length := by rw [HM.out]; exact hlt
      obtain ⟨b1, o1, rfl, hb1, hg1⟩ := lv_range (h1.row.below hbel) hkl
      obtain ⟨b2, o2, rfl, hb2, hg2⟩ := lv_range (h2.row.below hbel) hkm
      have ok1 := (h1.each _ (List.getElem_mem hkl)).below hbel
      have ok2 := (h2.each _ (List.getElem_mem hkm)).below hbel
      obtain ⟨⟨key, val, idx, pa, pn, pc, path⟩, hp⟩ : ∃ p, es[k] = p := ⟨_, rfl⟩
      obtain ⟨⟨key2, val2, idx2, pa2, pn2, pc2, path2⟩, hp2⟩ : ∃ p, fs[k] = p := ⟨_, rfl⟩
      rw [hp] at hg1 ok1
      rw [hp2] at hg2 ok2
      have hg1 : wr.rangeAt b1 (o1 + k * 4) [.string key, .string val, .int .i64 idx, .slice pa pn pc] := hg1
      have hg2 : wr.rangeAt b2 (o2 + k * 4) [.string key2, .string val2, .int .i64 idx2, .slice pa2 pn2 pc2] := hg2
      have n0 : (0 : Int) ≤ (k : Int) := by omega
      have n1' : (k : Int) < (n1 : Int) := by omega
      have n2' : ((k : Nat) : Int).toNat = k := by omega
      obtain ⟨eb, heb⟩ : ∃ b, leafB ⟨key, val, idx, pa, pn, pc, path⟩ ⟨key2, val2, idx2, pa2, pn2, pc2, path2⟩ = b := ⟨_, rfl⟩
      have CE := fun W o1 o2 => leafEq_any key val idx pa pn pc path key2 val2 idx2 pa2 pn2 pc2 path2 W o1 o2
      simp only [heb] at CE
      have hend : eb = false → r = false := fun q => by
        subst q
        rw [← HF.out]
        refine lvsB_ne (fun q9 => ?_)
        have h9 : (es.map LeafV.d)[k]'(by rw [List.length_map]; exact hkl) = (fs.map LeafV.d)[k]'(by rw [List.length_map]; exact hkm) := by simp only [q9]
        rw [List.getElem_map, List.getElem_map, hp, hp2] at h9
        rw [leafB_iff.2 h9] at heb
        cases heb
      have hnext : eb = true → Hid ((es.take (k + 1)).map LeafV.d = (fs.take (k + 1)).map LeafV.d) := fun q => by
        subst q
        refine Lib.hid ?_
        rw [List.take_succ_eq_append_getElem hkl, List.take_succ_eq_append_getElem hkm, List.map_append, List.map_append, HT.out, hp, hp2, List.map_singleton, List.map_singleton, leafB_iff.1 heb]
      clear heb hp hp2
      go_upto_region 6 with (first | (refine wpList_load_mid rfl 94 (.tmp 20) rfl b1 _ rfl _ _ hg1 Tryd.underlying94 rfl (by kernel_rfl) ?_) | (refine wpList_storeRowTo rfl (.tmp 8) (.tmp 21) 94 rfl (by kernel_rfl) rfl (by rfl) (heap_push _ _ _) rfl (leaf_one _ _ _ _ _ _) ?_))
      refine wp_nameE _ (fun W5 hX => ?_)
      have hb : Below wr.heap.size wr W5 := by rw [hX]; first | exact below_setRow (Below.alloc (Below.refl _ _) (Nat.le_refl _) _) (Nat.le_refl _) _ | exact Below.alloc (Below.refl _ _) (Nat.le_refl _) _
      have hx : W5.heap[wr.heap.size]? = some (.cells #[.string key, .string val, .int .i64 idx, .slice pa pn pc] 94 (0, 0)) := by rw [hX]; first | exact setRow_heap _ _ _ _ _ _ (heap_push _ _ _) | exact heap_push _ _ _
      clear hX
      have hg2 : W5.rangeAt b2 (o2 + k * 4) [.string key2, .string val2, .int .i64 idx2, .slice pa2 pn2 pc2] := fun j v hv => by rw [hb.cell (p := ⟨b2, o2 + k * 4 + j, none⟩) hb2]; exact hg2 j v hv
      have hbel := hbel.trans (hb.mono hbel.size)
      have ok1 := ok1.below hb
      have ok2 := ok2.below hb
      have hxl : wr.heap.size < W5.heap.size := (Array.getElem?_eq_some_iff.1 hx).1
      go_upto_region 7 with (first | (refine wpList_load_mid rfl 94 (.tmp 24) rfl b2 _ rfl _ _ hg2 Tryd.underlying94 rfl (by kernel_rfl) ?_) | (refine wpList_storeRowTo rfl (.tmp 9) (.tmp 25) 94 rfl (by kernel_rfl) rfl (by rfl) (heap_push _ _ _) rfl (leaf_one _ _ _ _ _ _) ?_))
      refine wp_nameE _ (fun W6 hX => ?_)
      have hb : Below W5.heap.size W5 W6 := by rw [hX]; first | exact below_setRow (Below.alloc (Below.refl _ _) (Nat.le_refl _) _) (Nat.le_refl _) _ | exact Below.alloc (Below.refl _ _) (Nat.le_refl _) _
      have hy : W6.heap[W5.heap.size]? = some (.cells #[.string key2, .string val2, .int .i64 idx2, .slice pa2 pn2 pc2] 94 (0, 0)) := by rw [hX]; first | exact setRow_heap _ _ _ _ _ _ (heap_push _ _ _) | exact heap_push _ _ _
      clear hX
      have hx := cells_of hx hb hxl
      have hbel := hbel.trans (hb.mono hbel.size)
      have ok1 := ok1.below hb
      have ok2 := ok2.below hb
      have x0 := cell_heap hx 0; have x1 := cell_heap hx 1; have x2 := cell_heap hx 2; have x3 := cell_heap hx 3; have y0 := cell_heap hy 0; have y1 := cell_heap hy 1; have y2 := cell_heap hy 2; have y3 := cell_heap hy 3
      clear hg1 hg2 hb
      cases eb
      · obtain rfl := hend rfl
        go_wp2_with (go_at_call 82; refine (CE _ ok1 ok2).mono ?_; rintro e w8 ⟨rfl, hb⟩; have hbel := hbel.trans (hb.mono hbel.size))
        go_ret
        exact ⟨rfl, hbel⟩
      · have HS := hnext rfl
        clear hend hnext
        go_wp2_with (go_at_call 82; refine (CE _ ok1 ok2).mono ?_; rintro e w8 ⟨rfl, hb⟩; have hbel := hbel.trans (hb.mono hbel.size))
        go_roundw
        case rel => exact ⟨k + 1, by omega, by go_num, HS, hbel⟩
        case measure => (simp [intOf]) <;> omega
    · have d1 : decide ((k : Int) < (n1 : Int)) = false := decide_eq_false (by omega)
      have d1n : decide (k < n1) = false := decide_eq_false hlt
      have hgood : r = true := by
        have := HT.out
        rw [List.take_of_length_le (by rw [HN.out]; omega), List.take_of_length_le (by rw [HM.out]; omega)] at this
        rw [← HF.out]; exact (lvsB_iff _ _).2 this
      subst hgood
      go_wp2
      go_ret
      exact ⟨rfl, hbel⟩
  · have e0 : ((n1 : Int) != (n2 : Int)) = true := by simpa using fun h => hnn (by omega)
    have e0n : (n1 != n2) = true := by simpa using hnn
    rw [lvsB_ne (fun q => hnn (by have := congrArg List.length q; rw [List.length_map, List.length_map] at this; omega))]
    clear hn hm hnn
    go_enter Tryd.func81, Tryd.ntmps81
    go_wp2
    go_ret
    exact ⟨rfl, Below.refl _ _⟩
def pfB (c1 c2 : Int) (xs ys : List LeafV) : Bool := (c1 == c2) && lvsB xs ys
set_option maxRecDepth 100000 in
set_option maxHeartbeats 4000000 in
theorem pfSame_any (ct : Int) (a1 : Option Addr) (n1 c1 : Nat) (es : List LeafV) (ct2 : Int) (a2 : Option Addr) (n2 c2 : Nat) (fs : List LeafV) (w : World) (h1 : LvsAt w a1 es) (h2 : LvsAt w a2 fs) (hn : es.length = n1) (hm : fs.length = n2) (hnm : n1 ≤ maxLen) (hmm : n2 ≤ maxLen) :
    Calls Tryd.prog 47 #[.agg #[.int .i64 ct, .slice a1 n1 c1], .agg #[.int .i64 ct2, .slice a2 n2 c2]] w fun e w' => e = .returned (.bool (pfB ct ct2 es fs)) ∧ Below w.heap.size w w' := by
  have CE := fun W (hb : Below w.heap.size w W) => lvsEq_any a1 a2 n1 n2 c1 c2 es fs W (h1.below hb) (h2.below hb) hn hm hnm hmm
  obtain ⟨k0, e0⟩ : ∃ b, (ct == ct2) = b := ⟨_, rfl⟩
  obtain ⟨k1, e1⟩ : ∃ b, lvsB es fs = b := ⟨_, rfl⟩
  have hS : pfB ct ct2 es fs = (k0 && k1) := by unfold pfB; simp only [e0, e1]
  obtain ⟨r, hr⟩ : ∃ r, (k0 && k1) = r := ⟨_, rfl⟩
  rw [hS, hr]
  simp only [e1] at CE
  have HR := Lib.hid hr
  clear hS hr e1 hn hm
  have hg0 := al2_0 w (.cells #[.int .i64 ct, .slice a1 n1 c1] 46) (.cells #[.int .i64 ct2, .slice a2 n2 c2] 46)
  have hh0 := al2_1 w (.cells #[.int .i64 ct, .slice a1 n1 c1] 46) (.cells #[.int .i64 ct2, .slice a2 n2 c2] 46)
  have hbA := al2_below w (.cells #[.int .i64 ct, .slice a1 n1 c1] 46) (.cells #[.int .i64 ct2, .slice a2 n2 c2] 46)
  go_enter Tryd.func47, Tryd.ntmps47
  go_upto_region 1 with fail
  refine wp_nameE _ (fun W1 hX => ?_)
  have hg : W1.heap[w.heap.size]? = some (.cells #[.int .i64 ct, .slice a1 n1 c1] 46 (0, 0)) := by rw [hX]; exact hg0
  have hh : W1.heap[w.heap.size + 1]? = some (.cells #[.int .i64 ct2, .slice a2 n2 c2] 46 (0, 0)) := by rw [hX]; exact hh0
  have hbel : Below w.heap.size w W1 := by rw [hX]; exact hbA
  clear hX hg0 hh0 hbA
  have hgl : w.heap.size < W1.heap.size := (Array.getElem?_eq_some_iff.1 hg).1
  have hhl : w.heap.size + 1 < W1.heap.size := (Array.getElem?_eq_some_iff.1 hh).1
  have q0 := cell_heap hg 0; have q1 := cell_heap hg 1; have r0 := cell_heap hh 0; have r1 := cell_heap hh 1
  cases k0
  · obtain rfl : false = r := by rw [← HR.out]; simp
    go_wp2
    go_ret
    exact ⟨rfl, hbel⟩
  obtain rfl : k1 = r := by rw [← HR.out]; simp
  go_wp2_with (go_at_call 81; refine (CE _ hbel).mono ?_; rintro e w2 ⟨rfl, hb⟩; have hbel := hbel.trans (hb.mono hbel.size))
  go_ret
  exact ⟨rfl, hbel⟩
end Go.Proofs.YtfikbaoiialfeaaDoor
namespace Go.Proofs.YtfikbaoiialfeaaDoor
open Go.RowKit
attribute [local go_sem] strV
set_option linter.unusedVariables false

def fitsB (key val : ByteArray) : Bool := decide (0 < key.size) && decide (key.size ≤ 160) && decide (0 < val.size) && decide (val.size ≤ 64)
theorem str_nonempty {s : ByteArray} (h : 0 < s.size) : (s.toList == []) = false ∧ (s.toList != []) = true ∧ s.toList.isEmpty = false := by
  have h1 := str_ne'' h
  exact ⟨h1, by unfold bne; rw [h1]; rfl, str_ne' h⟩
set_option maxRecDepth 100000 in
set_option maxHeartbeats 4000000 in
theorem fits_any (key val : ByteArray) (w : World) :
    Calls Tryd.prog 77 #[.string key, .string val] w fun e w' => e = .returned (.bool (fitsB key val)) ∧ w = w' := by
  by_cases h0 : key.size = 0
  · rw [show fitsB key val = false by unfold fitsB; rw [h0]; rfl]
    obtain rfl := str_nil h0
    clear h0
    go_enter Tryd.func77, Tryd.ntmps77
    go_wp2
    go_ret
    exact ⟨rfl, rfl⟩
  obtain ⟨a1, a2, a3⟩ := str_nonempty (s := key) (by omega)
  by_cases h1 : key.size ≤ 160
  · have d1 : decide ((key.size : Int) ≤ 160) = true := decide_eq_true (by omega)
    have d1n : decide (key.size ≤ 160) = true := decide_eq_true h1
    by_cases h2 : val.size = 0
    · rw [show fitsB key val = false by unfold fitsB; rw [h2]; simp]
      obtain rfl := str_nil h2
      clear h0 h2 h1
      go_enter Tryd.func77, Tryd.ntmps77
      go_wp2
      go_ret
      exact ⟨rfl, rfl⟩
    obtain ⟨b1, b2, b3⟩ := str_nonempty (s := val) (by omega)
    by_cases h3 : val.size ≤ 64
    · have d3 : decide ((val.size : Int) ≤ 64) = true := decide_eq_true (by omega)
      have d3n : decide (val.size ≤ 64) = true := decide_eq_true h3
      rw [show fitsB key val = true by unfold fitsB; simp only [Bool.and_eq_true, decide_eq_true_eq]; omega]
      clear h0 h2 h1 h3
      go_enter Tryd.func77, Tryd.ntmps77
      go_wp2
      go_ret
      exact ⟨rfl, rfl⟩
    · have d3 : decide ((val.size : Int) ≤ 64) = false := decide_eq_false (by omega)
      have d3n : decide (val.size ≤ 64) = false := decide_eq_false h3
      rw [show fitsB key val = false by unfold fitsB; rw [d3n]; simp]
      clear h0 h2 h1 h3
      go_enter Tryd.func77, Tryd.ntmps77
      go_wp2
      go_ret
      exact ⟨rfl, rfl⟩
  · have d1 : decide ((key.size : Int) ≤ 160) = false := decide_eq_false (by omega)
    have d1n : decide (key.size ≤ 160) = false := decide_eq_false h1
    rw [show fitsB key val = false by unfold fitsB; rw [d1n]; simp]
    clear h0 h1
    go_enter Tryd.func77, Tryd.ntmps77
    go_wp2
    go_ret
    exact ⟨rfl, rfl⟩
def mayLeafB (ct : Int) (x : LeafV) : Bool := fitsB x.key x.val && decide (0 ≤ x.idx) && decide (x.idx < ct) && decide ((x.path.length : Int) = deepI ct x.idx)
def mayPfB (ct : Int) (xs : List LeafV) : Bool := decide (0 ≤ ct) && decide (ct ≤ 1073741824) && decide (xs.length ≤ 2) && xs.all (mayLeafB ct)
theorem all_takeL {α : Type} {p : α → Bool} {es : List α} {k : Nat} (hk : k < es.length) : (es.take (k + 1)).all p = ((es.take k).all p && p es[k]) := by
  rw [List.take_succ_eq_append_getElem hk, List.all_append]; simp
theorem all_badL {α : Type} {p : α → Bool} {es : List α} {k : Nat} (hk : k < es.length) (h : p es[k] = false) : es.all p = false := by
  rw [List.all_eq_false]; exact ⟨_, List.getElem_mem hk, by rw [h]; decide⟩
set_option maxRecDepth 100000 in
set_option maxHeartbeats 4000000 in
theorem mayPf_any (ct : Int) (a : Option Addr) (n cap : Nat) (xs : List LeafV) (w : World) (h : LvsAt w a xs) (hn : xs.length = n) (hnm : n ≤ maxLen) :
    Calls Tryd.prog 36 #[.agg #[.int .i64 ct, .slice a n cap]] w fun e w' => e = .returned (.bool (mayPfB ct xs)) ∧ Below w.heap.size w w' := by
  have HN := Lib.hid hn
  unfold maxLen at hnm
  by_cases c1 : ct < 0
  · have d1 : decide (ct < 0) = true := decide_eq_true c1
    rw [show mayPfB ct xs = false by unfold mayPfB; rw [decide_eq_false (show ¬ 0 ≤ ct by omega)]; simp]
    clear c1 hn
    have hg0 := heap_push w #[.int .i64 ct, .slice a n cap] 46
    have hbA : Below w.heap.size w (w.alloc (.cells #[.int .i64 ct, .slice a n cap] 46)) := Below.alloc (Below.refl _ _) (Nat.le_refl _) _
    go_enter Tryd.func36, Tryd.ntmps36
    go_upto_region 1 with fail
    refine wp_nameE _ (fun W1 hX => ?_)
    have hg : W1.heap[w.heap.size]? = some (.cells #[.int .i64 ct, .slice a n cap] 46 (0, 0)) := by rw [hX]; exact hg0
    have hbel : Below w.heap.size w W1 := by rw [hX]; exact hbA
    clear hX hg0 hbA
    have hgl : w.heap.size < W1.heap.size := (Array.getElem?_eq_some_iff.1 hg).1
    have q0 := cell_heap hg 0; have q1 := cell_heap hg 1
    go_wp2
    go_ret
    exact ⟨rfl, hbel⟩
  have d1 : decide (ct < 0) = false := decide_eq_false c1
  by_cases c2 : 1073741824 < ct
  · have d2 : decide (1073741824 < ct) = true := decide_eq_true c2
    rw [show mayPfB ct xs = false by unfold mayPfB; rw [decide_eq_false (show ¬ ct ≤ 1073741824 by omega)]; simp]
    clear c1 c2 hn
    have hg0 := heap_push w #[.int .i64 ct, .slice a n cap] 46
    have hbA : Below w.heap.size w (w.alloc (.cells #[.int .i64 ct, .slice a n cap] 46)) := Below.alloc (Below.refl _ _) (Nat.le_refl _) _
    go_enter Tryd.func36, Tryd.ntmps36
    go_upto_region 1 with fail
    refine wp_nameE _ (fun W1 hX => ?_)
    have hg : W1.heap[w.heap.size]? = some (.cells #[.int .i64 ct, .slice a n cap] 46 (0, 0)) := by rw [hX]; exact hg0
    have hbel : Below w.heap.size w W1 := by rw [hX]; exact hbA
    clear hX hg0 hbA
    have hgl : w.heap.size < W1.heap.size := (Array.getElem?_eq_some_iff.1 hg).1
    have q0 := cell_heap hg 0; have q1 := cell_heap hg 1
    go_wp2
    go_ret
    exact ⟨rfl, hbel⟩
  have d2 : decide (1073741824 < ct) = false := decide_eq_false c2
  by_cases c3 : 2 < n
  · have d3 : decide (2 < (n : Int)) = true := decide_eq_true (by omega)
    have d3n : decide (2 < n) = true := decide_eq_true c3
    rw [show mayPfB ct xs = false by unfold mayPfB; rw [decide_eq_false (show ¬ xs.length ≤ 2 by omega)]; simp]
    clear c1 c2 c3 hn
    have hg0 := heap_push w #[.int .i64 ct, .slice a n cap] 46
    have hbA : Below w.heap.size w (w.alloc (.cells #[.int .i64 ct, .slice a n cap] 46)) := Below.alloc (Below.refl _ _) (Nat.le_refl _) _
    go_enter Tryd.func36, Tryd.ntmps36
    go_upto_region 1 with fail
    refine wp_nameE _ (fun W1 hX => ?_)
    have hg : W1.heap[w.heap.size]? = some (.cells #[.int .i64 ct, .slice a n cap] 46 (0, 0)) := by rw [hX]; exact hg0
    have hbel : Below w.heap.size w W1 := by rw [hX]; exact hbA
    clear hX hg0 hbA
    have hgl : w.heap.size < W1.heap.size := (Array.getElem?_eq_some_iff.1 hg).1
    have q0 := cell_heap hg 0; have q1 := cell_heap hg 1
    go_wp2
    go_ret
    exact ⟨rfl, hbel⟩
  have d3 : decide (2 < (n : Int)) = false := decide_eq_false (by omega)
  have d3n : decide (2 < n) = false := decide_eq_false c3
  obtain ⟨r, hr⟩ : ∃ r, xs.all (mayLeafB ct) = r := ⟨_, rfl⟩
  rw [show mayPfB ct xs = r by unfold mayPfB; rw [decide_eq_true (show 0 ≤ ct by omega), decide_eq_true (show ct ≤ 1073741824 by omega), decide_eq_true (show xs.length ≤ 2 by omega), hr]; rfl]
  have HF := Lib.hid hr
  clear hr hn c1 c2
  have hg0 := heap_push w #[.int .i64 ct, .slice a n cap] 46
  have hbA : Below w.heap.size w (w.alloc (.cells #[.int .i64 ct, .slice a n cap] 46)) := Below.alloc (Below.refl _ _) (Nat.le_refl _) _
  go_enter Tryd.func36, Tryd.ntmps36
  go_upto_region 1 with fail
  refine wp_nameE _ (fun W1 hX => ?_)
  have hg : W1.heap[w.heap.size]? = some (.cells #[.int .i64 ct, .slice a n cap] 46 (0, 0)) := by rw [hX]; exact hg0
  have hbel : Below w.heap.size w W1 := by rw [hX]; exact hbA
  clear hX hg0 hbA
  have hgl : w.heap.size < W1.heap.size := (Array.getElem?_eq_some_iff.1 hg).1
  have q0 := cell_heap hg 0; have q1 := cell_heap hg 1
  go_upto_region 4 with fail
  go_loopw [22] (fun i wr => ∃ k : Nat, k ≤ n ∧ i = .int .i64 k ∧ Hid ((xs.take k).all (mayLeafB ct) = true) ∧ Below W1.heap.size W1 wr) (fun i _ => n - (intOf i).toNat)
  case atStart => exact ⟨0, Nat.zero_le _, rfl, Lib.hid (by simp), Below.refl _ _⟩
  case round =>
    obtain ⟨k, hk, rfl, HT, hb⟩ := hrel
    have hbel := hbel.trans (hb.mono hbel.size)
    have hg := cells_of hg hb hgl
    have hgl := Nat.lt_of_lt_of_le hgl hb.size
    have q0 := cell_heap hg 0; have q1 := cell_heap hg 1
    by_cases hlt : k < n
    · have d1 : decide ((k : Int) < (n : Int)) = true := decide_eq_true (by omega)
      have d1n : decide (k < n) = true := decide_eq_true hlt
      have hkl : k < xs.length := by rw [HN.out]; exact hlt
      obtain ⟨b1, o1, rfl, hb1, hg1⟩ := lv_range (h.row.below hbel) hkl
      have ok1 := (h.each _ (List.getElem_mem hkl)).below hbel
      have hstep := all_takeL (p := mayLeafB ct) hkl
      have hbad := all_badL (p := mayLeafB ct) hkl
      obtain ⟨⟨key, val, idx, pa, pn, pc, path⟩, hp⟩ : ∃ p, xs[k] = p := ⟨_, rfl⟩
      rw [hp] at hg1 ok1 hstep hbad
      have hg1 : wr.rangeAt b1 (o1 + k * 4) [.string key, .string val, .int .i64 idx, .slice pa pn pc] := hg1
      have hpl : path.length = pn := ok1.len
      rw [HT.out] at hstep
      have n0 : (0 : Int) ≤ (k : Int) := by omega
      have n1' : (k : Int) < (n : Int) := by omega
      have n2' : ((k : Nat) : Int).toNat = k := by omega
      clear hp ok1
      go_upto_region 6 with (first | (refine wpList_load_mid rfl 94 (.tmp 24) rfl b1 _ rfl _ _ hg1 Tryd.underlying94 rfl (by kernel_rfl) ?_) | (refine wpList_storeRowTo rfl (.tmp 4) (.tmp 25) 94 rfl (by kernel_rfl) rfl (by rfl) (heap_push _ _ _) rfl (leaf_one _ _ _ _ _ _) ?_))
      refine wp_nameE _ (fun W5 hX => ?_)
      have hb5 : Below wr.heap.size wr W5 := by rw [hX]; first | exact below_setRow (Below.alloc (Below.refl _ _) (Nat.le_refl _) _) (Nat.le_refl _) _ | exact Below.alloc (Below.refl _ _) (Nat.le_refl _) _
      have hx : W5.heap[wr.heap.size]? = some (.cells #[.string key, .string val, .int .i64 idx, .slice pa pn pc] 94 (0, 0)) := by rw [hX]; first | exact setRow_heap _ _ _ _ _ _ (heap_push _ _ _) | exact heap_push _ _ _
      clear hX hg1
      have hxl : wr.heap.size < W5.heap.size := (Array.getElem?_eq_some_iff.1 hx).1
      have hb := hb.trans (hb5.mono hb.size)
      have hg := cells_of hg hb5 hgl
      have hgl := Nat.lt_of_lt_of_le hgl hb5.size
      have hbel := hbel.trans (hb5.mono hbel.size)
      have q0 := cell_heap hg 0; have q1 := cell_heap hg 1; have x0 := cell_heap hx 0; have x1 := cell_heap hx 1; have x2 := cell_heap hx 2; have x3 := cell_heap hx 3
      have CF := fun W => fits_any key val W
      have CD := fun W => deep_any ct idx W
      obtain ⟨fb, hfb⟩ : ∃ b, fitsB key val = b := ⟨_, rfl⟩
      obtain ⟨D, hD⟩ : ∃ d, deepI ct idx = d := ⟨_, rfl⟩
      have hml : mayLeafB ct ⟨key, val, idx, pa, pn, pc, path⟩ = (fb && decide (0 ≤ idx) && decide (idx < ct) && decide ((pn : Int) = D)) := by unfold mayLeafB; simp only [hfb, hD, hpl]
      simp only [hfb] at CF
      simp only [hD] at CD
      rw [hml] at hstep hbad
      clear hml hfb hD hpl
      have hcb := (beyond_cells (W := W5)).1
      have hfz := (beyond_cells (W := W5)).2
      cases fb
      · obtain rfl : false = r := by rw [← HF.out, hbad (by simp)]
        clear hstep hbad
        refine wp_region_below (by kernel_rfl) (by kernel_rfl) ?_
        repeat (go_big_quiet_step (first | (go_at_call 77; exact quiet_below_same (CF _)) | (go_at_call 25; exact quiet_below (CD _))))
        intro w9 hw9
        have hb9 := beyond_below hw9
        go_wp2
        go_ret
        exact ⟨rfl, hbel.trans (hb9.mono hbel.size)⟩
      by_cases e1 : idx < 0
      · have f1 : decide (idx < 0) = true := decide_eq_true e1
        obtain rfl : false = r := by rw [← HF.out, hbad (by rw [decide_eq_false (show ¬ 0 ≤ idx by omega)]; simp)]
        clear hstep hbad e1
        refine wp_region_below (by kernel_rfl) (by kernel_rfl) ?_
        repeat (go_big_quiet_step (first | (go_at_call 77; exact quiet_below_same (CF _)) | (go_at_call 25; exact quiet_below (CD _))))
        intro w9 hw9
        have hb9 := beyond_below hw9
        go_wp2
        go_ret
        exact ⟨rfl, hbel.trans (hb9.mono hbel.size)⟩
      have f1 : decide (idx < 0) = false := decide_eq_false e1
      by_cases e2 : ct ≤ idx
      · have f2 : decide (ct ≤ idx) = true := decide_eq_true e2
        obtain rfl : false = r := by rw [← HF.out, hbad (by rw [decide_eq_false (show ¬ idx < ct by omega)]; simp)]
        clear hstep hbad e1 e2
        refine wp_region_below (by kernel_rfl) (by kernel_rfl) ?_
        repeat (go_big_quiet_step (first | (go_at_call 77; exact quiet_below_same (CF _)) | (go_at_call 25; exact quiet_below (CD _))))
        intro w9 hw9
        have hb9 := beyond_below hw9
        go_wp2
        go_ret
        exact ⟨rfl, hbel.trans (hb9.mono hbel.size)⟩
      have f2 : decide (ct ≤ idx) = false := decide_eq_false e2
      by_cases e3 : (pn : Int) = D
      · have f3 : ((pn : Int) != D) = false := by rw [e3]; simp
        have hs9 : (xs.take (k + 1)).all (mayLeafB ct) = true := by rw [hstep, decide_eq_true (show 0 ≤ idx by omega), decide_eq_true (show idx < ct by omega), decide_eq_true e3]; rfl
        have HS := Lib.hid hs9
        clear hstep hbad hs9 e1 e2 e3
        refine wp_region_below (by kernel_rfl) (by kernel_rfl) ?_
        repeat (go_big_quiet_step (first | (go_at_call 77; exact quiet_below_same (CF _)) | (go_at_call 25; exact quiet_below (CD _))))
        intro w9 hw9
        have hb9 := beyond_below hw9
        go_wp2
        go_roundw
        case rel => exact ⟨k + 1, by omega, by go_num, HS, hb.trans (hb9.mono hb.size)⟩
        case measure => (simp [intOf]) <;> omega
      · have f3 : ((pn : Int) != D) = true := by rw [bne_iff_ne]; exact e3
        obtain rfl : false = r := by rw [← HF.out, hbad (by rw [decide_eq_false e3]; simp)]
        clear hstep hbad e1 e2 e3
        refine wp_region_below (by kernel_rfl) (by kernel_rfl) ?_
        repeat (go_big_quiet_step (first | (go_at_call 77; exact quiet_below_same (CF _)) | (go_at_call 25; exact quiet_below (CD _))))
        intro w9 hw9
        have hb9 := beyond_below hw9
        go_wp2
        go_ret
        exact ⟨rfl, hbel.trans (hb9.mono hbel.size)⟩
    · have d9 : decide ((k : Int) < (n : Int)) = false := decide_eq_false (by omega)
      have d9n : decide (k < n) = false := decide_eq_false hlt
      obtain rfl : true = r := by rw [← HF.out, ← HT.out, List.take_of_length_le (by rw [HN.out]; omega)]
      go_wp2
      go_ret
      exact ⟨rfl, hbel⟩
def lightLeaf (x : LeafV) : Bool := decide (x.key.size ≤ 400) && decide (x.val.size ≤ 400) && decide (x.path.length ≤ 40)
def lightPf (xs : List LeafV) : Bool := decide (xs.length ≤ 5) && xs.all lightLeaf
set_option maxRecDepth 100000 in
set_option maxHeartbeats 4000000 in
theorem lightPf_any (ct : Int) (a : Option Addr) (n cap : Nat) (xs : List LeafV) (w : World) (h : LvsAt w a xs) (hn : xs.length = n) (hnm : n ≤ maxLen) :
    Calls Tryd.prog 37 #[.agg #[.int .i64 ct, .slice a n cap]] w fun e w' => e = .returned (.bool (lightPf xs)) ∧ Below w.heap.size w w' := by
  have HN := Lib.hid hn
  unfold maxLen at hnm
  by_cases c3 : 5 < n
  · have d3 : decide (5 < (n : Int)) = true := decide_eq_true (by omega)
    have d3n : decide (5 < n) = true := decide_eq_true c3
    rw [show lightPf xs = false by unfold lightPf; rw [decide_eq_false (show ¬ xs.length ≤ 5 by omega)]; simp]
    clear c3 hn
    have hg0 := heap_push w #[.int .i64 ct, .slice a n cap] 46
    have hbA : Below w.heap.size w (w.alloc (.cells #[.int .i64 ct, .slice a n cap] 46)) := Below.alloc (Below.refl _ _) (Nat.le_refl _) _
    go_enter Tryd.func37, Tryd.ntmps37
    go_upto_region 1 with fail
    refine wp_nameE _ (fun W1 hX => ?_)
    have hg : W1.heap[w.heap.size]? = some (.cells #[.int .i64 ct, .slice a n cap] 46 (0, 0)) := by rw [hX]; exact hg0
    have hbel : Below w.heap.size w W1 := by rw [hX]; exact hbA
    clear hX hg0 hbA
    have hgl : w.heap.size < W1.heap.size := (Array.getElem?_eq_some_iff.1 hg).1
    have q0 := cell_heap hg 0; have q1 := cell_heap hg 1
    go_wp2
    go_ret
    exact ⟨rfl, hbel⟩
  have d3 : decide (5 < (n : Int)) = false := decide_eq_false (by omega)
  have d3n : decide (5 < n) = false := decide_eq_false c3
  obtain ⟨r, hr⟩ : ∃ r, xs.all lightLeaf = r := ⟨_, rfl⟩
  rw [show lightPf xs = r by unfold lightPf; rw [decide_eq_true (show xs.length ≤ 5 by omega), hr]; rfl]
  have HF := Lib.hid hr
  clear hr hn
  have hg0 := heap_push w #[.int .i64 ct, .slice a n cap] 46
  have hbA : Below w.heap.size w (w.alloc (.cells #[.int .i64 ct, .slice a n cap] 46)) := Below.alloc (Below.refl _ _) (Nat.le_refl _) _
  go_enter Tryd.func37, Tryd.ntmps37
  go_upto_region 1 with fail
  refine wp_nameE _ (fun W1 hX => ?_)
  have hg : W1.heap[w.heap.size]? = some (.cells #[.int .i64 ct, .slice a n cap] 46 (0, 0)) := by rw [hX]; exact hg0
  have hbel : Below w.heap.size w W1 := by rw [hX]; exact hbA
  clear hX hg0 hbA
  have hgl : w.heap.size < W1.heap.size := (Array.getElem?_eq_some_iff.1 hg).1
  have q0 := cell_heap hg 0; have q1 := cell_heap hg 1
  go_upto_region 4 with fail
  go_loopw [3] (fun i wr => ∃ k : Nat, k ≤ n ∧ i = .int .i64 k ∧ Hid ((xs.take k).all lightLeaf = true) ∧ Below W1.heap.size W1 wr) (fun i _ => n - (intOf i).toNat)
  case atStart => exact ⟨0, Nat.zero_le _, rfl, Lib.hid (by simp), Below.refl _ _⟩
  case round =>
    obtain ⟨k, hk, rfl, HT, hb⟩ := hrel
    have hbel := hbel.trans (hb.mono hbel.size)
    have hg := cells_of hg hb hgl
    have hgl := Nat.lt_of_lt_of_le hgl hb.size
    have q0 := cell_heap hg 0; have q1 := cell_heap hg 1
    by_cases hlt : k < n
    · have d1 : decide ((k : Int) < (n : Int)) = true := decide_eq_true (by omega)
      have d1n : decide (k < n) = true := decide_eq_true hlt
      have hkl : k < xs.length := by rw [HN.out]; exact hlt
      obtain ⟨b1, o1, rfl, hb1, hg1⟩ := lv_range (h.row.below hbel) hkl
      have ok1 := (h.each _ (List.getElem_mem hkl)).below hbel
      have hstep := all_takeL (p := lightLeaf) hkl
      have hbad := all_badL (p := lightLeaf) hkl
      obtain ⟨⟨key, val, idx, pa, pn, pc, path⟩, hp⟩ : ∃ p, xs[k] = p := ⟨_, rfl⟩
      rw [hp] at hg1 ok1 hstep hbad
      have hg1 : wr.rangeAt b1 (o1 + k * 4) [.string key, .string val, .int .i64 idx, .slice pa pn pc] := hg1
      have hpl : path.length = pn := ok1.len
      rw [HT.out] at hstep
      have n0 : (0 : Int) ≤ (k : Int) := by omega
      have n1' : (k : Int) < (n : Int) := by omega
      have n2' : ((k : Nat) : Int).toNat = k := by omega
      clear hp ok1
      go_upto_region 7 with (first | (refine wpList_load_mid rfl 94 (.tmp 19) rfl b1 _ rfl _ _ hg1 Tryd.underlying94 rfl (by kernel_rfl) ?_) | (refine wpList_storeRowTo rfl (.tmp 4) (.tmp 20) 94 rfl (by kernel_rfl) rfl (by rfl) (heap_push _ _ _) rfl (leaf_one _ _ _ _ _ _) ?_))
      refine wp_nameE _ (fun W5 hX => ?_)
      have hb5 : Below wr.heap.size wr W5 := by rw [hX]; first | exact below_setRow (Below.alloc (Below.refl _ _) (Nat.le_refl _) _) (Nat.le_refl _) _ | exact Below.alloc (Below.refl _ _) (Nat.le_refl _) _
      have hx : W5.heap[wr.heap.size]? = some (.cells #[.string key, .string val, .int .i64 idx, .slice pa pn pc] 94 (0, 0)) := by rw [hX]; first | exact setRow_heap _ _ _ _ _ _ (heap_push _ _ _) | exact heap_push _ _ _
      clear hX hg1
      have hxl : wr.heap.size < W5.heap.size := (Array.getElem?_eq_some_iff.1 hx).1
      have hb := hb.trans (hb5.mono hb.size)
      have hg := cells_of hg hb5 hgl
      have hgl := Nat.lt_of_lt_of_le hgl hb5.size
      have hbel := hbel.trans (hb5.mono hbel.size)
      have q0 := cell_heap hg 0; have q1 := cell_heap hg 1; have x0 := cell_heap hx 0; have x1 := cell_heap hx 1; have x2 := cell_heap hx 2; have x3 := cell_heap hx 3
      have hml : lightLeaf ⟨key, val, idx, pa, pn, pc, path⟩ = (decide (key.size ≤ 400) && decide (val.size ≤ 400) && decide (pn ≤ 40)) := by unfold lightLeaf; simp only [hpl]
      rw [hml] at hstep hbad
      clear hml hpl
      by_cases e1 : 400 < key.size
      · have fe1 : decide (400 < (key.size : Int)) = true := decide_eq_true (by omega)
        have ge1 : decide (400 < key.size) = true := decide_eq_true e1
        obtain rfl : false = r := by rw [← HF.out, hbad (by rw [decide_eq_false (show ¬ key.size ≤ 400 by omega)]; simp)]
        clear hstep hbad
        go_wp2
        go_ret
        exact ⟨rfl, hbel⟩
      have fe1 : decide (400 < (key.size : Int)) = false := decide_eq_false (by omega)
      have ge1 : decide (400 < key.size) = false := decide_eq_false e1
      by_cases e2 : 400 < val.size
      · have fe2 : decide (400 < (val.size : Int)) = true := decide_eq_true (by omega)
        have ge2 : decide (400 < val.size) = true := decide_eq_true e2
        obtain rfl : false = r := by rw [← HF.out, hbad (by rw [decide_eq_false (show ¬ val.size ≤ 400 by omega)]; simp)]
        clear hstep hbad
        go_wp2
        go_ret
        exact ⟨rfl, hbel⟩
      have fe2 : decide (400 < (val.size : Int)) = false := decide_eq_false (by omega)
      have ge2 : decide (400 < val.size) = false := decide_eq_false e2
      by_cases e3 : 40 < pn
      · have fe3 : decide (40 < (pn : Int)) = true := decide_eq_true (by omega)
        have ge3 : decide (40 < pn) = true := decide_eq_true e3
        obtain rfl : false = r := by rw [← HF.out, hbad (by rw [decide_eq_false (show ¬ pn ≤ 40 by omega)]; simp)]
        clear hstep hbad
        go_wp2
        go_ret
        exact ⟨rfl, hbel⟩
      have fe3 : decide (40 < (pn : Int)) = false := decide_eq_false (by omega)
      have ge3 : decide (40 < pn) = false := decide_eq_false e3
      have hs9 : (xs.take (k + 1)).all lightLeaf = true := by rw [hstep, decide_eq_true (show key.size ≤ 400 by omega), decide_eq_true (show val.size ≤ 400 by omega), decide_eq_true (show pn ≤ 40 by omega)]; rfl
      have HS := Lib.hid hs9
      clear hstep hbad hs9 e1 e2 e3
      go_wp2
      go_roundw
      case rel => exact ⟨k + 1, by omega, by go_num, HS, hb⟩
      case measure => (simp [intOf]) <;> omega
    · have d9 : decide ((k : Int) < (n : Int)) = false := decide_eq_false (by omega)
      have d9n : decide (k < n) = false := decide_eq_false hlt
      obtain rfl : true = r := by rw [← HF.out, ← HT.out, List.take_of_length_le (by rw [HN.out]; omega)]
      go_wp2
      go_ret
      exact ⟨rfl, hbel⟩
end Go.Proofs.YtfikbaoiialfeaaDoor
namespace Go.Proofs.YtfikbaoiialfeaaDoor
open Go.RowKit
attribute [local go_sem] strV
set_option linter.unusedVariables false

end Go.Proofs.YtfikbaoiialfeaaDoor
namespace Go.Proofs.YtfikbaoiialfeaaDoor
open Go.RowKit
attribute [local go_sem] strV
set_option linter.unusedVariables false
namespace Go.Proofs.YtfikbaoiialfeaaDoor
open Go.RowKit
attribute [local go_sem] strV
set_option linter.unusedVariables false
end Go.Proofs.YtfikbaoiialfeaaDoor
namespace Go.Proofs.YtfikbaoiialfeaaDoor
open Go.RowKit
attribute [local go_sem] strV
set_option linter.unusedVariables false
namespace Go.Proofs.YtfikbaoiialfeaaDoor
open Go.RowKit
attribute [local go_sem] strV
set_option linter.unusedVariables false
theorem leafB_split (x y : LeafV) : leafB x y = ((x.key.toList == y.key.toList) && (x.val.toList == y.val.toList) && (x.idx == y.idx) && hsB x.path y.path) := rfl
set_option maxRecDepth 100000 in
set_option maxHeartbeats 12800000 in
theorem refSamePf_any (ct : Int) (a1 : Option Addr) (n1 c1 : Nat) (es : List LeafV) (ct2 : Int) (a2 : Option Addr) (n2 c2 : Nat) (fs : List LeafV) (w : World) (h1 : LvsAt w a1 es) (h2 : LvsAt w a2 fs) (hn : es.length = n1) (hm : fs.length = n2) (hnm : n1 ≤ maxLen) (hmm : n2 ≤ maxLen) :
    Calls Tryd.prog 41 #[.agg #[.int .i64 ct, .slice a1 n1 c1], .agg #[.int .i64 ct2, .slice a2 n2 c2]] w fun e w' => e = .returned (.bool (pfB ct ct2 es fs)) ∧ Below w.heap.size w w' := by
  obtain ⟨k0, e0⟩ : ∃ b, (ct == ct2) = b := ⟨_, rfl⟩
  have hp0 := al2_0 w (.cells #[.int .i64 ct, .slice a1 n1 c1] 46) (.cells #[.int .i64 ct2, .slice a2 n2 c2] 46)
  have hq0 := al2_1 w (.cells #[.int .i64 ct, .slice a1 n1 c1] 46) (.cells #[.int .i64 ct2, .slice a2 n2 c2] 46)
  have hbA := al2_below w (.cells #[.int .i64 ct, .slice a1 n1 c1] 46) (.cells #[.int .i64 ct2, .slice a2 n2 c2] 46)
  have e0' : (ct != ct2) = !k0 := by rw [← e0]; rfl
  obtain ⟨r, hr⟩ : ∃ r, pfB ct ct2 es fs = r := ⟨_, rfl⟩
  have HR : Hid ((k0 && lvsB es fs) = r) := Lib.hid (by rw [← hr, ← e0]; rfl)
  rw [hr]
  have HN := Lib.hid hn
  have HM := Lib.hid hm
  clear hr hn hm
  unfold maxLen at hnm hmm
  have CB : n1 ≠ n2 → lvsB es fs = false := fun h => lvsB_ne (fun q => h (by have := congrArg List.length q; rw [List.length_map, List.length_map, HN.out, HM.out] at this; omega))
  go_enter Tryd.func41, Tryd.ntmps41
  go_upto_region 1 with fail
  refine wp_nameE _ (fun W1 hX => ?_)
  have hp : W1.heap[w.heap.size]? = some (.cells #[.int .i64 ct, .slice a1 n1 c1] 46 (0, 0)) := by rw [hX]; exact hp0
  have hq : W1.heap[w.heap.size + 1]? = some (.cells #[.int .i64 ct2, .slice a2 n2 c2] 46 (0, 0)) := by rw [hX]; exact hq0
  have hb1 : Below w.heap.size w W1 := by rw [hX]; exact hbA
  clear hX hp0 hq0 hbA
  have hpl : w.heap.size < W1.heap.size := (Array.getElem?_eq_some_iff.1 hp).1
  have hql : w.heap.size + 1 < W1.heap.size := (Array.getElem?_eq_some_iff.1 hq).1
  have p0 := cell_heap hp 0; have p1 := cell_heap hp 1; have q0 := cell_heap hq 0; have q1 := cell_heap hq 1
  cases k0
  · obtain rfl : false = r := by rw [← HR.out]; rfl
    go_wp2
    go_ret
    exact ⟨rfl, hb1⟩
  by_cases hnn : n1 = n2
  rotate_left
  · have e1 : ((n1 : Int) != (n2 : Int)) = true := by simpa using fun h => hnn (by omega)
    have e1n : (n1 != n2) = true := by simpa using hnn
    obtain rfl : false = r := by rw [← HR.out, CB hnn]; rfl
    go_wp2
    go_ret
    exact ⟨rfl, hb1⟩
  subst hnn
  have e1 : ((n1 : Int) != (n1 : Int)) = false := by simp
  have e1n : (n1 != n1) = false := by simp
  have HF : Hid (lvsB es fs = r) := Lib.hid (by rw [← HR.out]; rfl)
  clear CB HR
  go_upto_region 4 with fail
  go_loopw [5] (fun i wr => ∃ k : Nat, k ≤ n1 ∧ i = .int .i64 k ∧ Hid ((es.take k).map LeafV.d = (fs.take k).map LeafV.d) ∧ Below W1.heap.size W1 wr) (fun i _ => n1 - (intOf i).toNat)
  case atStart => exact ⟨0, Nat.zero_le _, rfl, Lib.hid rfl, Below.refl _ _⟩
  case round =>
    obtain ⟨k, hk, rfl, HT, hbW⟩ := hrel
    have hbel := hb1.trans (hbW.mono hb1.size)
    have hp := cells_of hp hbW hpl
    have hq := cells_of hq hbW hql
    clear p0 p1 q0 q1
    have p0 := cell_heap hp 0; have p1 := cell_heap hp 1; have q0 := cell_heap hq 0; have q1 := cell_heap hq 1
    by_cases hlt : k < n1
    · have d1 : decide ((k : Int) < (n1 : Int)) = true := decide_eq_true (by omega)
      have d1n : decide (k < n1) = true := decide_eq_true hlt
      have hkl : k < es.length := by rw [HN.out]; exact hlt
      have hkm : k < fs.length := by rw [HM.out]; exact hlt
      obtain ⟨b1, o1, rfl, hlb1, hg1⟩ := lv_range (h1.row.below hbel) hkl
      obtain ⟨b2, o2, rfl, hlb2, hg2⟩ := lv_range (h2.row.below hbel) hkm
      have ok1 := (h1.each _ (List.getElem_mem hkl)).below hbel
      have ok2 := (h2.each _ (List.getElem_mem hkm)).below hbel
      obtain ⟨⟨key, val, idx, pa, pn, pc, path⟩, hpp⟩ : ∃ p, es[k] = p := ⟨_, rfl⟩
      obtain ⟨⟨key2, val2, idx2, pa2, pn2, pc2, path2⟩, hpp2⟩ : ∃ p, fs[k] = p := ⟨_, rfl⟩
      rw [hpp] at hg1 ok1
      rw [hpp2] at hg2 ok2
      have hg1 : wr.rangeAt b1 (o1 + k * 4) [.string key, .string val, .int .i64 idx, .slice pa pn pc] := hg1
      have hg2 : wr.rangeAt b2 (o2 + k * 4) [.string key2, .string val2, .int .i64 idx2, .slice pa2 pn2 pc2] := hg2
      have n0 : (0 : Int) ≤ (k : Int) := by omega
      have n1' : (k : Int) < (n1 : Int) := by omega
      have n2' : ((k : Nat) : Int).toNat = k := by omega
      have hend : leafB ⟨key, val, idx, pa, pn, pc, path⟩ ⟨key2, val2, idx2, pa2, pn2, pc2, path2⟩ = false → r = false := fun q => by
        rw [← HF.out]
        refine lvsB_ne (fun q9 => ?_)
        have h9 : (es.map LeafV.d)[k]'(by rw [List.length_map]; exact hkl) = (fs.map LeafV.d)[k]'(by rw [List.length_map]; exact hkm) := by simp only [q9]
        rw [List.getElem_map, List.getElem_map, hpp, hpp2] at h9
        rw [leafB_iff.2 h9] at q
        cases q
      have hnext : leafB ⟨key, val, idx, pa, pn, pc, path⟩ ⟨key2, val2, idx2, pa2, pn2, pc2, path2⟩ = true → Hid ((es.take (k + 1)).map LeafV.d = (fs.take (k + 1)).map LeafV.d) := fun q => by
        refine Lib.hid ?_
        rw [List.take_succ_eq_append_getElem hkl, List.take_succ_eq_append_getElem hkm, List.map_append, List.map_append, HT.out, hpp, hpp2, List.map_singleton, List.map_singleton, leafB_iff.1 q]
      rw [leafB_split] at hend hnext
      simp only at hend hnext
      have HEND := Lib.hid hend
      have HNEXT := Lib.hid hnext
      clear hend hnext
      have u0 := hg1 0 _ rfl; have u1 := hg1 1 _ rfl; have u2 := hg1 2 _ rfl; have u3 := hg1 3 _ rfl
      have v0 := hg2 0 _ rfl; have v1 := hg2 1 _ rfl; have v2 := hg2 2 _ rfl; have v3 := hg2 3 _ rfl
      simp only [Nat.add_zero] at u0 v0
      clear hpp hpp2
      obtain ⟨r1, l1, cp1, m1, _, _⟩ := ok1
      obtain ⟨r2, l2, cp2, m2, _, _⟩ := ok2
      simp only at r1 l1 cp1 m1 r2 l2 cp2 m2
      unfold maxLen at m1 m2
      have L1 := Lib.hid l1
      have L2 := Lib.hid l2
      clear l1 l2
      have hlp : w.heap.size < wr.heap.size := Nat.lt_of_lt_of_le hpl hbW.size
      have hlq : w.heap.size + 1 < wr.heap.size := Nat.lt_of_lt_of_le hql hbW.size
      have ne1 : w.heap.size ≠ wr.heap.size := by omega
      have ne2 : w.heap.size + 1 ≠ wr.heap.size := by omega
      have ne3 : b1 ≠ wr.heap.size := by omega
      have ne4 : b2 ≠ wr.heap.size := by omega
      have ne5 : w.heap.size ≠ wr.heap.size + 1 := by omega
      have ne6 : w.heap.size + 1 ≠ wr.heap.size + 1 := by omega
      have ne7 : b1 ≠ wr.heap.size + 1 := by omega
      have ne8 : b2 ≠ wr.heap.size + 1 := by omega
      go_upto_region 6 with fail
      go_cut [6, 7] from 23 to 85 (fun s t wc => ∃ g0 g1 : Nat, s = .pointer (some ⟨g0, 0, none⟩) ∧ t = .pointer (some ⟨g1, 0, none⟩) ∧ wc.heap[g0]? = some (.cells #[.string key, .string val, .int .i64 idx, .slice pa pn pc] 94 (0, 0)) ∧ wc.heap[g1]? = some (.cells #[.string key2, .string val2, .int .i64 idx2, .slice pa2 pn2 pc2] 94 (0, 0)) ∧ Below wr.heap.size wr wc)
      case first =>
        go_region
        · go_wp2
          go_meet
          exact ⟨_, _, rfl, rfl, al2_0 _ _ _, al2_1 _ _ _, (al2_below _ _ _).drew⟩
        · go_wp2
          go_meet
          exact ⟨_, _, rfl, rfl, al2_1 _ _ _, al2_0 _ _ _, (al2_below _ _ _).drew⟩
      case rest =>
        clear ne1 ne2 ne3 ne4 ne5 ne6 ne7 ne8 u0 u1 u2 u3 v0 v1 v2 v3 hg1 hg2
        obtain ⟨g0, g1, rfl, rfl, hx, hy, hb6⟩ := hcut
        have hp := cells_of hp hb6 hlp
        have hq := cells_of hq hb6 hlq
        have r1 := r1.below hb6
        have r2 := r2.below hb6
        have hbel := hbel.trans (hb6.mono hbel.size)
        have hb16 := hbW.trans (hb6.mono hbW.size)
        clear p0 p1 q0 q1 hb6
        have x0 := cell_heap hx 0; have x1 := cell_heap hx 1; have x2 := cell_heap hx 2; have x3 := cell_heap hx 3; have y0 := cell_heap hy 0; have y1 := cell_heap hy 1; have y2 := cell_heap hy 2; have y3 := cell_heap hy 3
        have hxl : g0 < wc.heap.size := (Array.getElem?_eq_some_iff.1 hx).1
        have hyl : g1 < wc.heap.size := (Array.getElem?_eq_some_iff.1 hy).1
        obtain ⟨f0, e2⟩ : ∃ b, (key.toList == key2.toList) = b := ⟨_, rfl⟩
        obtain ⟨f1, e3⟩ : ∃ b, (val.toList == val2.toList) = b := ⟨_, rfl⟩
        obtain ⟨f2, e4⟩ : ∃ b, (idx == idx2) = b := ⟨_, rfl⟩
        have e2' : (key.toList != key2.toList) = !f0 := by rw [← e2]; rfl
        have e3' : (val.toList != val2.toList) = !f1 := by rw [← e3]; rfl
        have e4' : (idx != idx2) = !f2 := by rw [← e4]; rfl
        have hend := HEND.out
        have hnext := HNEXT.out
        rw [e2, e3, e4] at hend hnext
        have HEND := Lib.hid hend
        have HNEXT := Lib.hid hnext
        clear hend hnext
        cases f0
        · obtain rfl := HEND.out rfl
          go_wp2
          go_ret
          exact ⟨rfl, hbel⟩
        cases f1
        · obtain rfl := HEND.out rfl
          go_wp2
          go_ret
          exact ⟨rfl, hbel⟩
        cases f2
        · obtain rfl := HEND.out rfl
          go_wp2
          go_ret
          exact ⟨rfl, hbel⟩
        by_cases hpn : pn = pn2
        rotate_left
        · have e5 : ((pn : Int) != (pn2 : Int)) = true := by simpa using fun h => hpn (by omega)
          have e5n : (pn != pn2) = true := by simpa using hpn
          obtain rfl := HEND.out (by rw [show hsB path path2 = false from decide_eq_false (fun q => hpn (by rw [← L1.out, ← L2.out, q]))]; rfl)
          go_wp2
          go_ret
          exact ⟨rfl, hbel⟩
        subst hpn
        have e5 : ((pn : Int) != (pn : Int)) = false := by simp
        have e5n : (pn != pn) = false := by simp
        have HE : Hid (hsB path path2 = false → r = false) := Lib.hid fun q => HEND.out (by rw [q]; rfl)
        have HX : Hid (hsB path path2 = true → Hid ((es.take (k + 1)).map LeafV.d = (fs.take (k + 1)).map LeafV.d)) := Lib.hid fun q => HNEXT.out (by rw [q]; rfl)
        clear HEND HNEXT
        go_upto_region 10 with fail
        go_loopw [8] (fun i wr => ∃ j : Nat, j ≤ pn ∧ i = .int .i64 j ∧ Hid (path.take j = path2.take j) ∧ Below wc.heap.size wc wr) (fun i _ => pn - (intOf i).toNat)
        case atStart => exact ⟨0, Nat.zero_le _, rfl, Lib.hid rfl, Below.refl _ _⟩
        case round =>
          obtain ⟨j, hj, rfl, HP, hbv⟩ := hrel
          have hbel := hbel.trans (hbv.mono hbel.size)
          have hb16 := hb16.trans (hbv.mono hb16.size)
          have hx := cells_of hx hbv hxl
          have hy := cells_of hy hbv hyl
          have hxl := Nat.lt_of_lt_of_le hxl hbv.size
          have hyl := Nat.lt_of_lt_of_le hyl hbv.size
          clear x0 x1 x2 x3 y0 y1 y2 y3
          have x3 := cell_heap hx 3; have y3 := cell_heap hy 3
          by_cases hjt : j < pn
          · have d2 : decide ((j : Int) < (pn : Int)) = true := decide_eq_true (by omega)
            have d2n : decide (j < pn) = true := decide_eq_true hjt
            have hj1 : j < path.length := by rw [L1.out]; exact hjt
            have hj2 : j < path2.length := by rw [L2.out]; exact hjt
            obtain ⟨b3, o3, rfl, hb3, hg3⟩ := hs_at (r1.below hbv) hj1
            obtain ⟨b4, o4, rfl, hb4, hg4⟩ := hs_at (r2.below hbv) hj2
            have z3 : ∀ n : Beyond wr, n.x.cell? ⟨g0, 3, none⟩ = some (.slice (some ⟨b3, o3, none⟩) pn pc) := fun n => cell_heap (cells_of hx n.h hxl) 3
            have z4 : ∀ n : Beyond wr, n.x.cell? ⟨g1, 3, none⟩ = some (.slice (some ⟨b4, o4, none⟩) pn pc2) := fun n => cell_heap (cells_of hy n.h hyl) 3
            obtain ⟨q, hqq⟩ : ∃ p, path[j] = p := ⟨_, rfl⟩
            obtain ⟨q2, hqq2⟩ : ∃ p, path2[j] = p := ⟨_, rfl⟩
            rw [hqq] at hg3
            rw [hqq2] at hg4
            have l1 := fun m => load_hash_mid hg3 hb3 m
            have l2 := fun m => load_hash_mid hg4 hb4 m
            have hEQ := fun V : World => (run_equal_hash V 25 q.1 q2.1 q.2 q2.2 Tryd.underlying25 Tryd.underlying5 (by kernel_rfl) : (Op.equalIn 10000 25 (.agg (hrow q.1)) (.agg (hrow q2.1))).run Tryd.prog V = .ok (q.1 == q2.1) V)
            obtain ⟨eb, heb⟩ : ∃ b, (q.1 == q2.1) = b := ⟨_, rfl⟩
            simp only [heb] at hEQ
            have m0 : (0 : Int) ≤ (j : Int) := by omega
            have m1' : (j : Int) < (pn : Int) := by omega
            have m2' : ((j : Nat) : Int).toNat = j := by omega
            cases eb
            · obtain rfl := HE.out (by
                unfold hsB
                rw [decide_eq_false_iff_not]
                intro q9
                have : q = q2 := by subst q9; rw [← hqq, ← hqq2]
                subst this
                simp at heb)
              clear heb hqq hqq2 hg3 hg4 HE HX
              go_upto_region 12 with fail
              refine wp_region_below (by kernel_rfl) (by kernel_rfl) ?_
              repeat (first | (go_big_quiet_want; refine hload9 (v := .agg (hrow q.1)) 25 (.tmp 78) rfl (by rfl) (by rintro _ ⟨m, rfl⟩; exact l1 m) ?_; simp only [Act.put, List.setIfInBounds_toArray, List.set_cons_succ, List.set_cons_zero]; go_big_quiet_on) | (go_big_quiet_want; refine hload9 (v := .agg (hrow q2.1)) 25 (.tmp 83) rfl (by rfl) (by rintro _ ⟨m, rfl⟩; exact l2 m) ?_; simp only [Act.put, List.setIfInBounds_toArray, List.set_cons_succ, List.set_cons_zero]; go_big_quiet_on) | (go_big_quiet_step (fail)))
              intro w9 hw9
              have hb9 := beyond_below hw9
              go_wp2
              go_ret
              exact ⟨rfl, hbel.trans (hb9.mono hbel.size)⟩
            · have HS : Hid (path.take (j + 1) = path2.take (j + 1)) := Lib.hid (by rw [List.take_succ_eq_append_getElem hj1, List.take_succ_eq_append_getElem hj2, HP.out, hqq, hqq2, Subtype.ext (beq_iff_eq.1 heb)])
              clear heb hqq hqq2 hg3 hg4 HE HX
              go_upto_region 12 with fail
              refine wp_region_below (by kernel_rfl) (by kernel_rfl) ?_
              repeat (first | (go_big_quiet_want; refine hload9 (v := .agg (hrow q.1)) 25 (.tmp 78) rfl (by rfl) (by rintro _ ⟨m, rfl⟩; exact l1 m) ?_; simp only [Act.put, List.setIfInBounds_toArray, List.set_cons_succ, List.set_cons_zero]; go_big_quiet_on) | (go_big_quiet_want; refine hload9 (v := .agg (hrow q2.1)) 25 (.tmp 83) rfl (by rfl) (by rintro _ ⟨m, rfl⟩; exact l2 m) ?_; simp only [Act.put, List.setIfInBounds_toArray, List.set_cons_succ, List.set_cons_zero]; go_big_quiet_on) | (go_big_quiet_step (fail)))
              intro w9 hw9
              have hb9 := beyond_below hw9
              go_wp2
              go_roundw
              case rel => exact ⟨j + 1, by omega, by go_num, HS, hbv.trans (hb9.mono hbv.size)⟩
              case measure => (simp [intOf]) <;> omega
          · have d2 : decide ((j : Int) < (pn : Int)) = false := decide_eq_false (by omega)
            have d2n : decide (j < pn) = false := decide_eq_false hjt
            have HS := HX.out (by
              have := HP.out
              rw [List.take_of_length_le (by rw [L1.out]; omega), List.take_of_length_le (by rw [L2.out]; omega)] at this
              exact decide_eq_true this)
            clear HE HX
            go_wp2
            go_roundw
            case rel => exact ⟨k + 1, by omega, by go_num, HS, hb16⟩
            case measure => (simp [intOf]) <;> omega
    · have d1 : decide ((k : Int) < (n1 : Int)) = false := decide_eq_false (by omega)
      have d1n : decide (k < n1) = false := decide_eq_false hlt
      have hgood : r = true := by
        have := HT.out
        rw [List.take_of_length_le (by rw [HN.out]; omega), List.take_of_length_le (by rw [HM.out]; omega)] at this
        rw [← HF.out]; exact (lvsB_iff _ _).2 this
      subst hgood
      go_wp2
      go_ret
      exact ⟨rfl, hbel⟩
end Go.Proofs.YtfikbaoiialfeaaDoor

end Go.Proofs.YtfikbaoiialfeaaDoor
