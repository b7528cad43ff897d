/- Proofs in memory: leaves, whether two are the same, whether one may be. -/
import Derived.Test.YthipnkbfdkmhaaaSB
import Derived.Test.YthipnkbfdkmhaaaTree
import Derived.Test.YthipnkbfdkmhaaaGD
import Derived.WalkKit
import Derived.ProofKit
import Derived.Handy
import Derived.Below
import Derived.Lib.Hide
import Derived.IntWalk
import Derived.Outline
import Derived.WalkLawsBesides
import Derived.WalkSpells
namespace Go.Proofs.Ythipnkbfdkmhaaa
open Go.RowKit
attribute [local go_sem] strV
set_option linter.unusedVariables false

theorem heap_push (w : World) (cur : Array Value) (e : TypeId) : (w.alloc (.cells cur e)).heap[w.heap.size]? = some (.cells cur e (0, 0)) := by
  show (w.heap.push _)[w.heap.size]? = _
  rw [Array.getElem?_push_size]
theorem al2_0 (w : World) (a b : Obj) : ((w.alloc a).alloc b).heap[w.heap.size]? = some a := by
  show ((w.heap.push _).push _)[w.heap.size]? = _
  rw [Array.getElem?_push_lt (by simp), ← Array.getElem?_eq_getElem (by simp), Array.getElem?_push_size]
theorem al2_1 (w : World) (a b : Obj) : ((w.alloc a).alloc b).heap[w.heap.size + 1]? = some b := by
  show ((w.heap.push _).push _)[w.heap.size + 1]? = _
  rw [show w.heap.size + 1 = (w.heap.push a).size by simp, Array.getElem?_push_size]
theorem al2_below (w : World) (a b : Obj) : Below w.heap.size w ((w.alloc a).alloc b) := Below.alloc (Below.alloc (Below.refl _ _) (Nat.le_refl _) _) (by simp) _
theorem ba_eq {x y : ByteArray} : (x.toList == y.toList) = true ↔ x = y := by
  constructor
  · intro h
    simp only [beq_iff_eq, ByteArray.toList_eq] at h
    apply ByteArray.ext; apply Array.ext'; exact h
  · rintro rfl; simp
structure LeafD where
  key : ByteArray
  val : ByteArray
  idx : Int
  path : List H32
/-- A leaf as it lies in memory. -/
structure LeafV where
  key : ByteArray
  val : ByteArray
  idx : Int
  pa : Option Addr
  pn : Nat
  pc : Nat
  path : List H32
def LeafV.cells (x : LeafV) : List Value := [.string x.key, .string x.val, .int .i64 x.idx, .slice x.pa x.pn x.pc]
theorem LeafV.cells_len (x : LeafV) : x.cells.length = 4 := rfl
def LeafV.d (x : LeafV) : LeafD := ⟨x.key, x.val, x.idx, x.path⟩
structure LeafV.ok (x : LeafV) (w : World) : Prop where
  row : RowAt w x.pa (x.path.flatMap H32.cells)
  len : x.path.length = x.pn
  cap : x.pn ≤ x.pc
  capM : x.pc ≤ maxLen
  keyM : x.key.size ≤ maxLen
  valM : x.val.size ≤ maxLen
theorem LeafV.ok.below {x : LeafV} {w w' : World} (h : x.ok w) (hb : Below w.heap.size w w') : x.ok w' := ⟨h.row.below hb, h.len, h.cap, h.capM, h.keyM, h.valM⟩
structure LvsAt (w : World) (a : Option Addr) (xs : List LeafV) : Prop where
  row : RowAt w a (xs.flatMap LeafV.cells)
  each : ∀ x ∈ xs, x.ok w
theorem LvsAt.below {w w' : World} {a : Option Addr} {xs : List LeafV} (h : LvsAt w a xs) (hb : Below w.heap.size w w') : LvsAt w' a xs := ⟨h.row.below hb, fun x hx => (h.each x hx).below hb⟩
theorem LvsAt.nil (w : World) (a : Option Addr) : LvsAt w a [] := ⟨RowAt.nil _ _, fun x h => by cases h⟩
theorem lv_range {w : World} {a : Option Addr} {xs : List LeafV} (h : RowAt w a (xs.flatMap LeafV.cells)) {k : Nat} (hk : k < xs.length) :
    ∃ b off, a = some ⟨b, off, none⟩ ∧ b < w.heap.size ∧ w.rangeAt b (off + k * 4) xs[k].cells := by
  obtain ⟨b, off, ha, hb, hc⟩ := h.elem LeafV.cells_len hk (by decide)
  refine ⟨b, off, ha, hb, fun j v hv => ?_⟩
  have hj : j < 4 := by have := (List.getElem?_eq_some_iff.1 hv).1; rwa [LeafV.cells_len] at this
  rw [Nat.add_assoc, hc j hj, hv]
theorem leaf_one (key val : ByteArray) (idx : Int) (a : Option Addr) (n c : Nat) : (#[.string key, .string val, .int .i64 idx, .slice a n c] : Array Value).all (·.oneCell') = true := by
  simp [Value.oneCell']
def hsB (l m : List H32) : Bool := decide (l = m)
def leafB (x y : LeafV) : Bool := (x.key.toList == y.key.toList) && (x.val.toList == y.val.toList) && (x.idx == y.idx) && hsB x.path y.path
theorem leafB_iff {x y : LeafV} : leafB x y = true ↔ x.d = y.d := by
  unfold leafB hsB LeafV.d
  simp only [Bool.and_eq_true, ba_eq, beq_iff_eq (α := Int), decide_eq_true_eq, LeafD.mk.injEq, and_assoc]
def lvsB : List LeafV → List LeafV → Bool
  | [], [] => true
  | x :: xs, y :: ys => leafB x y && lvsB xs ys
  | _, _ => false
theorem lvsB_iff : ∀ l m : List LeafV, lvsB l m = true ↔ l.map LeafV.d = m.map LeafV.d
  | [], [] => by simp [lvsB]
  | [], _ :: _ => by simp [lvsB]
  | _ :: _, [] => by simp [lvsB]
  | x :: xs, y :: ys => by
    unfold lvsB
    rw [Bool.and_eq_true, leafB_iff, lvsB_iff xs ys, List.map_cons, List.map_cons, List.cons.injEq]
theorem lvsB_ne {l m : List LeafV} (h : l.map LeafV.d ≠ m.map LeafV.d) : lvsB l m = false := by
  cases h9 : lvsB l m
  · rfl
  · exact absurd ((lvsB_iff _ _).1 h9) h
theorem hload9 {P : Program} {o : Oper} {a : Act} {C : World → Prop} {K : Act → Prop} {v : Value} (t : TypeId) (p : Operand) {ad : Value} (hop : o.op = Op.load t p) (hp : a.eval p = ad)
    (hl : ∀ w, C w → (Instr.loadAt t ad).run P w = .ok v w) (h : K (a.put o.dst v)) : o.quiet P a C K := by
  refine ⟨v, fun w hw => ?_, h⟩
  unfold Oper.quietAt
  have := hl w hw
  simp [execOp, hop, hp, this, Result.andThen, Oper.quietUpon]
  try exact hw
set_option maxRecDepth 100000 in
set_option maxHeartbeats 4000000 in
theorem hsEq_any (a1 a2 : Option Addr) (n1 n2 c1 c2 : Nat) (es fs : List H32) (w : World) (h1 : RowAt w a1 (es.flatMap H32.cells)) (h2 : RowAt w a2 (fs.flatMap H32.cells)) (hn : es.length = n1) (hm : fs.length = n2) (hnm : n1 ≤ maxLen) (hmm : n2 ≤ maxLen) :
    Calls Try.prog 124 #[.slice a1 n1 c1, .slice a2 n2 c2] w fun e w' => e = .returned (.bool (hsB es fs)) ∧ Below w.heap.size w w' := by
  by_cases hnn : n1 = n2
  · subst hnn
    obtain ⟨r, hF⟩ : ∃ r, hsB es fs = r := ⟨_, rfl⟩
    rw [hF]
    have HF := Lib.hid hF
    have HN := Lib.hid hn
    have HM := Lib.hid hm
    clear hF hn hm hmm
    unfold maxLen at hnm
    have e0 : ((n1 : Int) != (n1 : Int)) = false := by simp
    have e0n : (n1 != n1) = false := by simp
    go_enter Try.func124, Try.ntmps124
    go_upto_region 4 with fail
    go_loopw [13] (fun i wr => ∃ k : Nat, k ≤ n1 ∧ i = .int .i64 k ∧ Hid (es.take k = fs.take k) ∧ Below w.heap.size w wr) (fun i _ => n1 - (intOf i).toNat)
    case atStart => exact ⟨0, Nat.zero_le _, rfl, Lib.hid rfl, Below.refl _ _⟩
    case round =>
    obtain ⟨k, hk, rfl, HT, hbel⟩ := hrel
    by_cases hlt : k < n1
    · have d1 : decide ((k : Int) < (n1 : Int)) = true := decide_eq_true (by omega)
      have d1n : decide (k < n1) = true := decide_eq_true hlt
      have hkl : k < es.length := by rw [HN.out]; exact hlt
      have hkm : k < fs.length := by rw [HM.out]; exact hlt
      obtain ⟨b1, o1, rfl, hb1, hg1⟩ := hs_at (h1.below hbel) hkl
      obtain ⟨b2, o2, rfl, hb2, hg2⟩ := hs_at (h2.below hbel) hkm
      obtain ⟨q, hp⟩ : ∃ p, es[k] = p := ⟨_, rfl⟩
      obtain ⟨q2, hp2⟩ : ∃ p, fs[k] = p := ⟨_, rfl⟩
      rw [hp] at hg1
      rw [hp2] at hg2
      have l1 := fun m => load_hash_mid hg1 hb1 m
      have l2 := fun m => load_hash_mid hg2 hb2 m
      have hEQ := fun V : World => (run_equal_hash V 23 q.1 q2.1 q.2 q2.2 Try.underlying23 Try.underlying5 (by kernel_rfl) : (Op.equalIn 10000 23 (.agg (hrow q.1)) (.agg (hrow q2.1))).run Try.prog V = .ok (q.1 == q2.1) V)
      obtain ⟨eb, heb⟩ : ∃ b, (q.1 == q2.1) = b := ⟨_, rfl⟩
      simp only [heb] at hEQ
      have n0 : (0 : Int) ≤ (k : Int) := by omega
      have n1' : (k : Int) < (n1 : Int) := by omega
      have n2' : ((k : Nat) : Int).toNat = k := by omega
      cases eb
      · have hbad : r = false := by
          rw [← HF.out]
          unfold hsB
          rw [decide_eq_false_iff_not]
          intro q9
          have : q = q2 := by subst q9; rw [← hp, ← hp2]
          subst this
          simp at heb
        subst hbad
        clear heb hp hp2 hg1 hg2
        go_upto_region 6 with fail
        refine wp_region_below (by kernel_rfl) (by kernel_rfl) ?_
        repeat (first | (go_big_quiet_want; refine hload9 (v := .agg (hrow q.1)) 23 (.tmp 18) rfl (by rfl) (by rintro _ ⟨m, rfl⟩; exact l1 m) ?_; simp only [Act.put, List.setIfInBounds_toArray, List.set_cons_succ, List.set_cons_zero]; go_big_quiet_on) | (go_big_quiet_want; refine hload9 (v := .agg (hrow q2.1)) 23 (.tmp 22) rfl (by rfl) (by rintro _ ⟨m, rfl⟩; exact l2 m) ?_; simp only [Act.put, List.setIfInBounds_toArray, List.set_cons_succ, List.set_cons_zero]; go_big_quiet_on) | (go_big_quiet_step (fail)))
        intro w9 hw9
        have hb9 := beyond_below hw9
        go_wp2
        go_ret
        exact ⟨rfl, hbel.trans (hb9.mono hbel.size)⟩
      · have hsame : es.take (k + 1) = fs.take (k + 1) := by rw [List.take_succ_eq_append_getElem hkl, List.take_succ_eq_append_getElem hkm, HT.out, hp, hp2, Subtype.ext (beq_iff_eq.1 heb)]
        have HS := Lib.hid hsame
        clear heb hp hp2 hg1 hg2 hsame
        go_upto_region 6 with fail
        refine wp_region_below (by kernel_rfl) (by kernel_rfl) ?_
        repeat (first | (go_big_quiet_want; refine hload9 (v := .agg (hrow q.1)) 23 (.tmp 18) rfl (by rfl) (by rintro _ ⟨m, rfl⟩; exact l1 m) ?_; simp only [Act.put, List.setIfInBounds_toArray, List.set_cons_succ, List.set_cons_zero]; go_big_quiet_on) | (go_big_quiet_want; refine hload9 (v := .agg (hrow q2.1)) 23 (.tmp 22) rfl (by rfl) (by rintro _ ⟨m, rfl⟩; exact l2 m) ?_; simp only [Act.put, List.setIfInBounds_toArray, List.set_cons_succ, List.set_cons_zero]; go_big_quiet_on) | (go_big_quiet_step (fail)))
        intro w9 hw9
        have hb9 := beyond_below hw9
        go_wp2
        go_roundw
        case rel => exact ⟨k + 1, by omega, by go_num, HS, hbel.trans (hb9.mono hbel.size)⟩
        case measure => (simp [intOf]) <;> omega
    · have d1 : decide ((k : Int) < (n1 : Int)) = false := decide_eq_false (by omega)
      have d1n : decide (k < n1) = false := decide_eq_false hlt
      have hgood : r = true := by
        have := HT.out
        rw [List.take_of_length_le (by rw [HN.out]; omega), List.take_of_length_le (by rw [HM.out]; omega)] at this
        rw [← HF.out]; exact decide_eq_true this
      subst hgood
      go_wp2
      go_ret
      exact ⟨rfl, hbel⟩
  · have e0 : ((n1 : Int) != (n2 : Int)) = true := by simpa using fun h => hnn (by omega)
    have e0n : (n1 != n2) = true := by simpa using hnn
    rw [show hsB es fs = false from decide_eq_false (fun q => hnn (by rw [← hn, ← hm, q]))]
    clear hn hm hnn
    go_enter Try.func124, Try.ntmps124
    go_wp2
    go_ret
    exact ⟨rfl, Below.refl _ _⟩
set_option maxRecDepth 100000 in
set_option maxHeartbeats 4000000 in
theorem leafEq_any (key val : ByteArray) (idx : Int) (pa : Option Addr) (pn pc : Nat) (path : List H32) (key2 val2 : ByteArray) (idx2 : Int) (pa2 : Option Addr) (pn2 pc2 : Nat) (path2 : List H32) (w : World) (h1 : (LeafV.mk key val idx pa pn pc path).ok w) (h2 : (LeafV.mk key2 val2 idx2 pa2 pn2 pc2 path2).ok w) :
    Calls Try.prog 106 #[.agg #[.string key, .string val, .int .i64 idx, .slice pa pn pc], .agg #[.string key2, .string val2, .int .i64 idx2, .slice pa2 pn2 pc2]] w fun e w' => e = .returned (.bool (leafB ⟨key, val, idx, pa, pn, pc, path⟩ ⟨key2, val2, idx2, pa2, pn2, pc2, path2⟩)) ∧ Below w.heap.size w w' := by
  obtain ⟨r1, l1, c1, m1, _, _⟩ := h1
  obtain ⟨r2, l2, c2, m2, _, _⟩ := h2
  simp only at r1 l1 c1 m1 r2 l2 c2 m2
  have CE := fun W (hb : Below w.heap.size w W) => hsEq_any pa pa2 pn pn2 pc pc2 path path2 W (r1.below hb) (r2.below hb) l1 l2 (Nat.le_trans c1 m1) (Nat.le_trans c2 m2)
  obtain ⟨k0, e0⟩ : ∃ b, (key.toList == key2.toList) = b := ⟨_, rfl⟩
  obtain ⟨k1, e1⟩ : ∃ b, (val.toList == val2.toList) = b := ⟨_, rfl⟩
  obtain ⟨k2, e2⟩ : ∃ b, (idx == idx2) = b := ⟨_, rfl⟩
  obtain ⟨k3, e3⟩ : ∃ b, hsB path path2 = b := ⟨_, rfl⟩
  have hS : leafB ⟨key, val, idx, pa, pn, pc, path⟩ ⟨key2, val2, idx2, pa2, pn2, pc2, path2⟩ = (k0 && k1 && k2 && k3) := by unfold leafB; simp only [e0, e1, e2, e3]
  obtain ⟨r, hr⟩ : ∃ r, (k0 && k1 && k2 && k3) = r := ⟨_, rfl⟩
  rw [hS, hr]
  simp only [e3] at CE
  have HR := Lib.hid hr
  clear hS hr e3 l1 l2
  have hg0 := al2_0 w (.cells #[.string key, .string val, .int .i64 idx, .slice pa pn pc] 111) (.cells #[.string key2, .string val2, .int .i64 idx2, .slice pa2 pn2 pc2] 111)
  have hh0 := al2_1 w (.cells #[.string key, .string val, .int .i64 idx, .slice pa pn pc] 111) (.cells #[.string key2, .string val2, .int .i64 idx2, .slice pa2 pn2 pc2] 111)
  have hbA := al2_below w (.cells #[.string key, .string val, .int .i64 idx, .slice pa pn pc] 111) (.cells #[.string key2, .string val2, .int .i64 idx2, .slice pa2 pn2 pc2] 111)
  go_enter Try.func106, Try.ntmps106
  go_upto_region 1 with fail
  refine wp_nameE _ (fun W1 hX => ?_)
  have hg : W1.heap[w.heap.size]? = some (.cells #[.string key, .string val, .int .i64 idx, .slice pa pn pc] 111 (0, 0)) := by rw [hX]; exact hg0
  have hh : W1.heap[w.heap.size + 1]? = some (.cells #[.string key2, .string val2, .int .i64 idx2, .slice pa2 pn2 pc2] 111 (0, 0)) := by rw [hX]; exact hh0
  have hbel : Below w.heap.size w W1 := by rw [hX]; exact hbA
  clear hX hg0 hh0 hbA
  have hgl : w.heap.size < W1.heap.size := (Array.getElem?_eq_some_iff.1 hg).1
  have hhl : w.heap.size + 1 < W1.heap.size := (Array.getElem?_eq_some_iff.1 hh).1
  have q0 := cell_heap hg 0; have q1 := cell_heap hg 1; have q2 := cell_heap hg 2; have q3 := cell_heap hg 3; have r0 := cell_heap hh 0; have r1 := cell_heap hh 1; have r2 := cell_heap hh 2; have r3 := cell_heap hh 3
  cases k0
  · obtain rfl : false = r := by rw [← HR.out]; simp
    go_wp2
    go_ret
    exact ⟨rfl, hbel⟩
  cases k1
  · obtain rfl : false = r := by rw [← HR.out]; simp
    go_wp2
    go_ret
    exact ⟨rfl, hbel⟩
  cases k2
  · obtain rfl : false = r := by rw [← HR.out]; simp
    go_wp2
    go_ret
    exact ⟨rfl, hbel⟩
  obtain rfl : k3 = r := by rw [← HR.out]; simp
  go_wp2_with (go_at_call 124; refine (CE _ hbel).mono ?_; rintro e w2 ⟨rfl, hb⟩; have hbel := hbel.trans (hb.mono hbel.size))
  go_ret
  exact ⟨rfl, hbel⟩
set_option maxRecDepth 100000 in
set_option maxHeartbeats 4000000 in
theorem lvsEq_any (a1 a2 : Option Addr) (n1 n2 c1 c2 : Nat) (es fs : List LeafV) (w : World) (h1 : LvsAt w a1 es) (h2 : LvsAt w a2 fs) (hn : es.length = n1) (hm : fs.length = n2) (hnm : n1 ≤ maxLen) (hmm : n2 ≤ maxLen) :
    Calls Try.prog 105 #[.slice a1 n1 c1, .slice a2 n2 c2, .func (.func 106) #[] #[]] w fun e w' => e = .returned (.bool (lvsB es fs)) ∧ Below w.heap.size w w' := by
  by_cases hnn : n1 = n2
  · subst hnn
    obtain ⟨r, hF⟩ : ∃ r, lvsB es fs = r := ⟨_, rfl⟩
    rw [hF]
    have HF := Lib.hid hF
    have HN := Lib.hid hn
    have HM := Lib.hid hm
    clear hF hn hm hmm
    unfold maxLen at hnm
    have e0 : ((n1 : Int) != (n1 : Int)) = false := by simp
    have e0n : (n1 != n1) = false := by simp
    go_enter Try.func105, Try.ntmps105
    go_upto_region 4 with fail
    go_loopw [17] (fun i wr => ∃ k : Nat, k ≤ n1 ∧ i = .int .i64 k ∧ Hid ((es.take k).map LeafV.d = (fs.take k).map LeafV.d) ∧ Below w.heap.size w wr) (fun i _ => n1 - (intOf i).toNat)
    case atStart => exact ⟨0, Nat.zero_le _, rfl, Lib.hid rfl, Below.refl _ _⟩
    case round =>
    obtain ⟨k, hk, rfl, HT, hbel⟩ := hrel
    by_cases hlt : k < n1
    · have d1 : decide ((k : Int) < (n1 : Int)) = true := decide_eq_true (by omega)
      have d1n : decide (k < n1) = true := decide_eq_true hlt
      have hkl : k < es.length := by rw [HN.out]; exact hlt
      have hkm : k < fs.length := by rw [HM.out]; exact hlt
      obtain ⟨b1, o1, rfl, hb1, hg1⟩ := lv_range (h1.row.below hbel) hkl
      obtain ⟨b2, o2, rfl, hb2, hg2⟩ := lv_range (h2.row.below hbel) hkm
      have ok1 := (h1.each _ (List.getElem_mem hkl)).below hbel
      have ok2 := (h2.each _ (List.getElem_mem hkm)).below hbel
      obtain ⟨⟨key, val, idx, pa, pn, pc, path⟩, hp⟩ : ∃ p, es[k] = p := ⟨_, rfl⟩
      obtain ⟨⟨key2, val2, idx2, pa2, pn2, pc2, path2⟩, hp2⟩ : ∃ p, fs[k] = p := ⟨_, rfl⟩
      rw [hp] at hg1 ok1
      rw [hp2] at hg2 ok2
      have hg1 : wr.rangeAt b1 (o1 + k * 4) [.string key, .string val, .int .i64 idx, .slice pa pn pc] := hg1
      have hg2 : wr.rangeAt b2 (o2 + k * 4) [.string key2, .string val2, .int .i64 idx2, .slice pa2 pn2 pc2] := hg2
      have n0 : (0 : Int) ≤ (k : Int) := by omega
      have n1' : (k : Int) < (n1 : Int) := by omega
      have n2' : ((k : Nat) : Int).toNat = k := by omega
      obtain ⟨eb, heb⟩ : ∃ b, leafB ⟨key, val, idx, pa, pn, pc, path⟩ ⟨key2, val2, idx2, pa2, pn2, pc2, path2⟩ = b := ⟨_, rfl⟩
      have CE := fun W o1 o2 => leafEq_any key val idx pa pn pc path key2 val2 idx2 pa2 pn2 pc2 path2 W o1 o2
      simp only [heb] at CE
      have hend : eb = false → r = false := fun q => by
        subst q
        rw [← HF.out]
        refine lvsB_ne (fun q9 => ?_)
        have h9 : (es.map LeafV.d)[k]'(by rw [List.length_map]; exact hkl) = (fs.map LeafV.d)[k]'(by rw [List.length_map]; exact hkm) := by simp only [q9]
        rw [List.getElem_map, List.getElem_map, hp, hp2] at h9
        rw [leafB_iff.2 h9] at heb
        cases heb
      have hnext : eb = true → Hid ((es.take (k + 1)).map LeafV.d = (fs.take (k + 1)).map LeafV.d) := fun q => by
        subst q
        refine Lib.hid ?_
        rw [List.take_succ_eq_append_getElem hkl, List.take_succ_eq_append_getElem hkm, List.map_append, List.map_append, HT.out, hp, hp2, List.map_singleton, List.map_singleton, leafB_iff.1 heb]
      clear heb hp hp2
      go_upto_region 6 with (first | (refine wpList_load_mid rfl 111 (.tmp 20) rfl b1 _ rfl _ _ hg1 Try.underlying111 rfl (by kernel_rfl) ?_) | (refine wpList_storeRowTo rfl (.tmp 8) (.tmp 21) 111 rfl (by kernel_rfl) rfl (by rfl) (heap_push _ _ _) rfl (leaf_one _ _ _ _ _ _) ?_))
      refine wp_nameE _ (fun W5 hX => ?_)
      have hb : Below wr.heap.size wr W5 := by rw [hX]; first | exact below_setRow (Below.alloc (Below.refl _ _) (Nat.le_refl _) _) (Nat.le_refl _) _ | exact Below.alloc (Below.refl _ _) (Nat.le_refl _) _
      have hx : W5.heap[wr.heap.size]? = some (.cells #[.string key, .string val, .int .i64 idx, .slice pa pn pc] 111 (0, 0)) := by rw [hX]; first | exact setRow_heap _ _ _ _ _ _ (heap_push _ _ _) | exact heap_push _ _ _
      clear hX
      have hg2 : W5.rangeAt b2 (o2 + k * 4) [.string key2, .string val2, .int .i64 idx2, .slice pa2 pn2 pc2] := fun j v hv => by rw [hb.cell (p := ⟨b2, o2 + k * 4 + j, none⟩) hb2]; exact hg2 j v hv
      have hbel := hbel.trans (hb.mono hbel.size)
      have ok1 := ok1.below hb
      have ok2 := ok2.below hb
      have hxl : wr.heap.size < W5.heap.size := (Array.getElem?_eq_some_iff.1 hx).1
      go_upto_region 7 with (first | (refine wpList_load_mid rfl 111 (.tmp 24) rfl b2 _ rfl _ _ hg2 Try.underlying111 rfl (by kernel_rfl) ?_) | (refine wpList_storeRowTo rfl (.tmp 9) (.tmp 25) 111 rfl (by kernel_rfl) rfl (by rfl) (heap_push _ _ _) rfl (leaf_one _ _ _ _ _ _) ?_))
      refine wp_nameE _ (fun W6 hX => ?_)
      have hb : Below W5.heap.size W5 W6 := by rw [hX]; first | exact below_setRow (Below.alloc (Below.refl _ _) (Nat.le_refl _) _) (Nat.le_refl _) _ | exact Below.alloc (Below.refl _ _) (Nat.le_refl _) _
      have hy : W6.heap[W5.heap.size]? = some (.cells #[.string key2, .string val2, .int .i64 idx2, .slice pa2 pn2 pc2] 111 (0, 0)) := by rw [hX]; first | exact setRow_heap _ _ _ _ _ _ (heap_push _ _ _) | exact heap_push _ _ _
      clear hX
      have hx := cells_of hx hb hxl
      have hbel := hbel.trans (hb.mono hbel.size)
      have ok1 := ok1.below hb
      have ok2 := ok2.below hb
      have x0 := cell_heap hx 0; have x1 := cell_heap hx 1; have x2 := cell_heap hx 2; have x3 := cell_heap hx 3; have y0 := cell_heap hy 0; have y1 := cell_heap hy 1; have y2 := cell_heap hy 2; have y3 := cell_heap hy 3
      clear hg1 hg2 hb
      cases eb
      · obtain rfl := hend rfl
        go_wp2_with (go_at_call 106; refine (CE _ ok1 ok2).mono ?_; rintro e w8 ⟨rfl, hb⟩; have hbel := hbel.trans (hb.mono hbel.size))
        go_ret
        exact ⟨rfl, hbel⟩
      · have HS := hnext rfl
        clear hend hnext
        go_wp2_with (go_at_call 106; refine (CE _ ok1 ok2).mono ?_; rintro e w8 ⟨rfl, hb⟩; have hbel := hbel.trans (hb.mono hbel.size))
        go_roundw
        case rel => exact ⟨k + 1, by omega, by go_num, HS, hbel⟩
        case measure => (simp [intOf]) <;> omega
    · have d1 : decide ((k : Int) < (n1 : Int)) = false := decide_eq_false (by omega)
      have d1n : decide (k < n1) = false := decide_eq_false hlt
      have hgood : r = true := by
        have := HT.out
        rw [List.take_of_length_le (by rw [HN.out]; omega), List.take_of_length_le (by rw [HM.out]; omega)] at this
        rw [← HF.out]; exact (lvsB_iff _ _).2 this
      subst hgood
      go_wp2
      go_ret
      exact ⟨rfl, hbel⟩
  · have e0 : ((n1 : Int) != (n2 : Int)) = true := by simpa using fun h => hnn (by omega)
    have e0n : (n1 != n2) = true := by simpa using hnn
    rw [lvsB_ne (fun q => hnn (by have := congrArg List.length q; rw [List.length_map, List.length_map] at this; omega))]
    clear hn hm hnn
    go_enter Try.func105, Try.ntmps105
    go_wp2
    go_ret
    exact ⟨rfl, Below.refl _ _⟩
def pfB (c1 c2 : Int) (xs ys : List LeafV) : Bool := (c1 == c2) && lvsB xs ys
set_option maxRecDepth 100000 in
set_option maxHeartbeats 4000000 in
theorem pfSame_any (ct : Int) (a1 : Option Addr) (n1 c1 : Nat) (es : List LeafV) (ct2 : Int) (a2 : Option Addr) (n2 c2 : Nat) (fs : List LeafV) (w : World) (h1 : LvsAt w a1 es) (h2 : LvsAt w a2 fs) (hn : es.length = n1) (hm : fs.length = n2) (hnm : n1 ≤ maxLen) (hmm : n2 ≤ maxLen) :
    Calls Try.prog 59 #[.agg #[.int .i64 ct, .slice a1 n1 c1], .agg #[.int .i64 ct2, .slice a2 n2 c2]] w fun e w' => e = .returned (.bool (pfB ct ct2 es fs)) ∧ Below w.heap.size w w' := by
  have CE := fun W (hb : Below w.heap.size w W) => lvsEq_any a1 a2 n1 n2 c1 c2 es fs W (h1.below hb) (h2.below hb) hn hm hnm hmm
  obtain ⟨k0, e0⟩ : ∃ b, (ct == ct2) = b := ⟨_, rfl⟩
  obtain ⟨k1, e1⟩ : ∃ b, lvsB es fs = b := ⟨_, rfl⟩
  have hS : pfB ct ct2 es fs = (k0 && k1) := by unfold pfB; simp only [e0, e1]
  obtain ⟨r, hr⟩ : ∃ r, (k0 && k1) = r := ⟨_, rfl⟩
  rw [hS, hr]
  simp only [e1] at CE
  have HR := Lib.hid hr
  clear hS hr e1 hn hm
  have hg0 := al2_0 w (.cells #[.int .i64 ct, .slice a1 n1 c1] 32) (.cells #[.int .i64 ct2, .slice a2 n2 c2] 32)
  have hh0 := al2_1 w (.cells #[.int .i64 ct, .slice a1 n1 c1] 32) (.cells #[.int .i64 ct2, .slice a2 n2 c2] 32)
  have hbA := al2_below w (.cells #[.int .i64 ct, .slice a1 n1 c1] 32) (.cells #[.int .i64 ct2, .slice a2 n2 c2] 32)
  go_enter Try.func59, Try.ntmps59
  go_upto_region 1 with fail
  refine wp_nameE _ (fun W1 hX => ?_)
  have hg : W1.heap[w.heap.size]? = some (.cells #[.int .i64 ct, .slice a1 n1 c1] 32 (0, 0)) := by rw [hX]; exact hg0
  have hh : W1.heap[w.heap.size + 1]? = some (.cells #[.int .i64 ct2, .slice a2 n2 c2] 32 (0, 0)) := by rw [hX]; exact hh0
  have hbel : Below w.heap.size w W1 := by rw [hX]; exact hbA
  clear hX hg0 hh0 hbA
  have hgl : w.heap.size < W1.heap.size := (Array.getElem?_eq_some_iff.1 hg).1
  have hhl : w.heap.size + 1 < W1.heap.size := (Array.getElem?_eq_some_iff.1 hh).1
  have q0 := cell_heap hg 0; have q1 := cell_heap hg 1; have r0 := cell_heap hh 0; have r1 := cell_heap hh 1
  cases k0
  · obtain rfl : false = r := by rw [← HR.out]; simp
    go_wp2
    go_ret
    exact ⟨rfl, hbel⟩
  obtain rfl : k1 = r := by rw [← HR.out]; simp
  go_wp2_with (go_at_call 105; refine (CE _ hbel).mono ?_; rintro e w2 ⟨rfl, hb⟩; have hbel := hbel.trans (hb.mono hbel.size))
  go_ret
  exact ⟨rfl, hbel⟩
end Go.Proofs.Ythipnkbfdkmhaaa
