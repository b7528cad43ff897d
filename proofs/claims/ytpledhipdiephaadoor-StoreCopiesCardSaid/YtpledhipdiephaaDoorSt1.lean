/- Pairs: fits, Good, the search (StoreUnder). -/
import Derived.Test.YtpledhipdiephaaDoorInsPr
import Derived.Test.YtpledhipdiephaaDoorPhi
import Derived.Test.YtpledhipdiephaaDoorShelf
import Derived.BigRegion
import Derived.RegionTactic
import Derived.BigQuiet
import Derived.Deep.QuietTactic
import Derived.Deep.MidRow
import Derived.LoopTactic
import Derived.BigFrame
import Derived.WalkKit
import Derived.ProofKit
import Derived.Handy
import Derived.Below
import Derived.Lib.Hide
import Derived.IntWalk
import Derived.Outline
import Derived.WalkLawsBesides
import Derived.WalkSpells
namespace Go.Proofs.YtpledhipdiephaaDoor
open Go.RowKit
attribute [local go_sem] strV
set_option linter.unusedVariables false
def fitsB (key val : ByteArray) : Bool := decide (0 < key.size) && decide (key.size ≤ 160) && decide (0 < val.size) && decide (val.size ≤ 64)
theorem str_nonempty {s : ByteArray} (h : 0 < s.size) : (s.toList == []) = false ∧ (s.toList != []) = true ∧ s.toList.isEmpty = false := by
  have h1 := str_ne'' h
  exact ⟨h1, by unfold bne; rw [h1]; rfl, str_ne' h⟩
set_option maxRecDepth 100000 in
set_option maxHeartbeats 4000000 in
theorem fits_any (key val : ByteArray) (w : World) :
    Calls Tryd.prog 70 #[.string key, .string val] w fun e w' => e = .returned (.bool (fitsB key val)) ∧ w = w' := by
  by_cases h0 : key.size = 0
  · rw [show fitsB key val = false by unfold fitsB; rw [h0]; rfl]
    obtain rfl := str_nil h0
    clear h0
    go_enter Tryd.func70, Tryd.ntmps70
    go_wp2
    go_ret
    exact ⟨rfl, rfl⟩
  obtain ⟨a1, a2, a3⟩ := str_nonempty (s := key) (by omega)
  by_cases h1 : key.size ≤ 160
  · have d1 : decide ((key.size : Int) ≤ 160) = true := decide_eq_true (by omega)
    have d1n : decide (key.size ≤ 160) = true := decide_eq_true h1
    by_cases h2 : val.size = 0
    · rw [show fitsB key val = false by unfold fitsB; rw [h2]; simp]
      obtain rfl := str_nil h2
      clear h0 h2 h1
      go_enter Tryd.func70, Tryd.ntmps70
      go_wp2
      go_ret
      exact ⟨rfl, rfl⟩
    obtain ⟨b1, b2, b3⟩ := str_nonempty (s := val) (by omega)
    by_cases h3 : val.size ≤ 64
    · have d3 : decide ((val.size : Int) ≤ 64) = true := decide_eq_true (by omega)
      have d3n : decide (val.size ≤ 64) = true := decide_eq_true h3
      rw [show fitsB key val = true by unfold fitsB; simp only [Bool.and_eq_true, decide_eq_true_eq]; omega]
      clear h0 h2 h1 h3
      go_enter Tryd.func70, Tryd.ntmps70
      go_wp2
      go_ret
      exact ⟨rfl, rfl⟩
    · have d3 : decide ((val.size : Int) ≤ 64) = false := decide_eq_false (by omega)
      have d3n : decide (val.size ≤ 64) = false := decide_eq_false h3
      rw [show fitsB key val = false by unfold fitsB; rw [d3n]; simp]
      clear h0 h2 h1 h3
      go_enter Tryd.func70, Tryd.ntmps70
      go_wp2
      go_ret
      exact ⟨rfl, rfl⟩
  · have d1 : decide ((key.size : Int) ≤ 160) = false := decide_eq_false (by omega)
    have d1n : decide (key.size ≤ 160) = false := decide_eq_false h1
    rw [show fitsB key val = false by unfold fitsB; rw [d1n]; simp]
    clear h0 h1
    go_enter Tryd.func70, Tryd.ntmps70
    go_wp2
    go_ret
    exact ⟨rfl, rfl⟩
theorem cmp_less : ∀ (l m : List UInt8), decide (Lib.compareBytes l m < 0) = Op.bytesLess l m
  | [], [] => rfl
  | [], _ :: _ => rfl
  | _ :: _, [] => rfl
  | a :: l, b :: m => by
    unfold Lib.compareBytes Op.bytesLess
    have ih := cmp_less l m
    by_cases h1 : a < b
    · simp [h1]
    · by_cases h2 : b < a
      · have hne : (a == b) = false := beq_eq_false_iff_ne.2 (fun e => by rw [e] at h2; exact UInt8.lt_irrefl _ h2)
        simp [h1, h2, hne]
      · have he : a = b := UInt8.le_antisymm (UInt8.not_lt.1 h2) (UInt8.not_lt.1 h1)
        subst he
        simp [h1, ih]
theorem less_irr : ∀ l : List UInt8, Op.bytesLess l l = false
  | [] => rfl
  | a :: l => by unfold Op.bytesLess; simp [less_irr l, UInt8.lt_irrefl]
theorem less_asym : ∀ (l m : List UInt8), Op.bytesLess l m = true → Op.bytesLess m l = false
  | [], [] => fun h => by cases h
  | [], _ :: _ => fun _ => rfl
  | _ :: _, [] => fun h => by cases h
  | a :: l, b :: m => fun h => by
    unfold Op.bytesLess at h ⊢
    simp only [Bool.or_eq_true, decide_eq_true_eq, Bool.and_eq_true, beq_iff_eq] at h
    rcases h with h | ⟨rfl, h⟩
    · have h1 : ¬ b < a := fun e => UInt8.lt_irrefl _ (UInt8.lt_trans h e)
      have h2 : (b == a) = false := beq_eq_false_iff_ne.2 (fun e => by rw [e] at h; exact UInt8.lt_irrefl _ h)
      simp [h1, h2]
    · simp [UInt8.lt_irrefl, less_asym l m h]
theorem less_tri : ∀ (l m : List UInt8), Op.bytesLess l m = false → Op.bytesLess m l = false → l = m
  | [], [] => fun _ _ => rfl
  | [], _ :: _ => fun h _ => by cases h
  | _ :: _, [] => fun _ h => by cases h
  | a :: l, b :: m => fun h k => by
    unfold Op.bytesLess at h k
    simp only [Bool.or_eq_false_iff, decide_eq_false_iff_not, Bool.and_eq_false_iff] at h k
    have he : a = b := UInt8.le_antisymm (UInt8.not_lt.1 k.1) (UInt8.not_lt.1 h.1)
    subst he
    have h2 : Op.bytesLess l m = false := by rcases h.2 with e | e; · simp at e
                                             · exact e
    have k2 : Op.bytesLess m l = false := by rcases k.2 with e | e; · simp at e
                                             · exact e
    rw [less_tri l m h2 k2]
theorem less_trans : ∀ (l m n : List UInt8), Op.bytesLess l m = true → Op.bytesLess m n = true → Op.bytesLess l n = true
  | [], [], _ => fun h _ => by cases h
  | _ :: _, [], _ => fun h _ => by cases h
  | _, _ :: _, [] => fun _ h => by cases h
  | [], _ :: _, _ :: _ => fun _ _ => rfl
  | a :: l, b :: m, c :: n => fun h k => by
    unfold Op.bytesLess at h k ⊢
    simp only [Bool.or_eq_true, decide_eq_true_eq, Bool.and_eq_true, beq_iff_eq] at h k ⊢
    rcases h with h | ⟨rfl, h⟩
    · rcases k with k | ⟨rfl, k⟩
      · exact .inl (UInt8.lt_trans h k)
      · exact .inl h
    · rcases k with k | ⟨rfl, k⟩
      · exact .inl k
      · exact .inr ⟨rfl, less_trans l m n h k⟩
structure Pr where
  k : ByteArray
  v : ByteArray
def Pr.cells (x : Pr) : List Value := [.string x.k, .string x.v]
theorem Pr.cells_len (x : Pr) : x.cells.length = 2 := rfl
theorem pr_one (x : Pr) : x.cells.toArray.all (·.oneCell') = true := by simp [Pr.cells, Value.oneCell']
theorem pr_range {w : World} {a : Option Addr} {xs : List Pr} (h : RowAt w a (xs.flatMap Pr.cells)) {k : Nat} (hk : k < xs.length) :
    ∃ b off, a = some ⟨b, off, none⟩ ∧ b < w.heap.size ∧ w.rangeAt b (off + k * 2) xs[k].cells := by
  obtain ⟨b, off, ha, hb, hc⟩ := h.elem Pr.cells_len hk (by decide)
  refine ⟨b, off, ha, hb, fun j v hv => ?_⟩
  have hj : j < 2 := by have := (List.getElem?_eq_some_iff.1 hv).1; rwa [Pr.cells_len] at this
  rw [Nat.add_assoc, hc j hj, hv]
theorem wpList_load_midP {P : Program} {ops : Array Oper} {rest : List Oper} {op : Oper} {a : Act} {w : World} {Q : Exit → Act → World → Prop} (ty : TypeId) (x : Operand) (ho : op.op = .load ty x)
    (b o : Nat) (hx : a.eval x = .pointer (some ⟨b, o, none⟩)) (cs : List Value) (d : TypeDesc) (hc : w.rangeAt b o cs)
    (hu : P.underlying ty = some d) (hd : d.isRow = true) (hi : (P.info? ty).map (·.size) = some cs.length) (hw : Region.wanted op (yielded ops a.tmps) = true)
    (h : wpList P ops Q rest (a.put op.dst (.agg cs.toArray)) w) : wpList P ops Q (op :: rest) a w := by
  unfold wpList
  rw [if_pos hw]
  exact .inl (wp_load_mid ty x ho b o hx cs d hc hu hd hi h)
def lessK (x y : ByteArray) : Bool := Op.bytesLess x.data.toList y.data.toList
def goodAt (l : List Pr) (i : Nat) : Bool := match l[i]? with
  | none => true
  | some p => fitsB p.k p.v && (i == 0 || match l[i - 1]? with | none => true | some q => lessK q.k p.k)
def goodL (l : List Pr) : Bool := (List.range l.length).all (goodAt l)
theorem goodL_bad {l : List Pr} {i : Nat} (hi : i < l.length) (h : goodAt l i = false) : goodL l = false := by
  unfold goodL
  rw [← Bool.not_eq_true, List.all_eq_true]
  intro h9
  have := h9 i (List.mem_range.2 hi)
  rw [h] at this
  cases this
theorem goodL_all {l : List Pr} (h : ∀ i, i < l.length → goodAt l i = true) : goodL l = true := List.all_eq_true.2 (fun i hi => h i (List.mem_range.1 hi))
set_option maxRecDepth 100000 in
set_option maxHeartbeats 6400000 in
theorem goodPr_any (a : Option Addr) (n cap : Nat) (l : List Pr) (w : World) (hr : RowAt w a (l.flatMap Pr.cells)) (hn : l.length = n) (hcap : n ≤ cap) (hcm : cap ≤ maxLen) :
    Calls Tryd.prog 48 #[.slice a n cap] w fun e w' => e = .returned (.bool (goodL l)) ∧ Below w.heap.size w w' := by
  unfold maxLen at hcm
  obtain ⟨r, hr9⟩ : ∃ r, goodL l = r := ⟨_, rfl⟩
  rw [hr9]
  have HR := Lib.hid hr9
  have HN := Lib.hid hn
  clear hr9 hn
  go_enter Tryd.func48, Tryd.ntmps48
  go_upto_region 2 with fail
  go_loopw [7] (fun i wr => ∃ k : Nat, k ≤ n ∧ i = .int .i64 k ∧ Hid (∀ i, i < k → goodAt l i = true) ∧ Below w.heap.size w wr) (fun i _ => n - (intOf i).toNat)
  case atStart => exact ⟨0, Nat.zero_le _, rfl, Lib.hid (fun i h => by omega), Below.refl _ _⟩
  case round =>
    obtain ⟨k, hk, rfl, HA, hbel⟩ := hrel
    by_cases hlt : k < n
    rotate_left
    · have d9 : decide ((k : Int) < (n : Int)) = false := decide_eq_false (by omega)
      have d9n : decide (k < n) = false := decide_eq_false hlt
      obtain rfl : r = true := by rw [← HR.out]; exact goodL_all (fun i hi => HA.out i (by rw [HN.out] at hi; omega))
      go_wp2
      go_ret
      exact ⟨rfl, hbel⟩
    have d1 : decide ((k : Int) < (n : Int)) = true := decide_eq_true (by omega)
    have d1n : decide (k < n) = true := decide_eq_true hlt
    have hkl : k < l.length := by rw [HN.out]; exact hlt
    obtain ⟨b1, o1, rfl, hb1, hg1⟩ := pr_range (hr.below hbel) hkl
    have hkm := List.getElem?_eq_getElem hkl
    obtain ⟨p, hp9⟩ : ∃ p, l[k] = p := ⟨_, rfl⟩
    rw [hp9] at hg1 hkm
    have HKM := Lib.hid hkm
    clear hp9 hkm
    have n0 : (0 : Int) ≤ (k : Int) := by omega
    have n1 : (k : Int) < (n : Int) := by omega
    have n2 : ((k : Nat) : Int).toNat = k := by omega
    go_upto_region 4 with (first | (refine wpList_load_mid rfl 41 (.tmp 10) rfl b1 _ rfl p.cells _ hg1 Tryd.underlying41 rfl (by rfl) ?_) | (refine wpList_storeRowTo (Z := p.cells.toArray) rfl (.tmp 4) (.tmp 11) 41 rfl (by kernel_rfl) rfl (by rfl) (heap_push _ _ _) rfl (pr_one p) ?_))
    refine wp_nameE _ (fun W4 hX => ?_)
    have hb4 : Below wr.heap.size wr W4 := by rw [hX]; exact below_setRow (Below.alloc (Below.refl _ _) (Nat.le_refl _) _) (Nat.le_refl _) _
    have hx : W4.heap[wr.heap.size]? = some (.cells p.cells.toArray 41 (0, 0)) := by rw [hX]; exact setRow_heap _ _ _ _ _ _ (heap_push _ _ _)
    clear hX
    have hbel := hbel.trans (hb4.mono hbel.size)
    have hb1 := Nat.lt_of_lt_of_le hb1 hb4.size
    obtain ⟨g4, hg4⟩ : ∃ g, wr.heap.size = g := ⟨_, rfl⟩
    rw [hg4] at hx
    simp only [hg4]
    clear hg4 hb4 hg1
    have hxl := (Array.getElem?_eq_some_iff.1 hx).1
    obtain ⟨fit, hfit⟩ : ∃ b, fitsB p.k p.v = b := ⟨_, rfl⟩
    have HFIT := Lib.hid hfit
    clear hfit
    cases fit
    · have hgd : goodAt l k = false := by unfold goodAt; rw [HKM.out]; simp only []; rw [HFIT.out]; rfl
      refine wp_region_facts [Fact.eq (.pointer (some ⟨g4, 0, none⟩)), Fact.eq (.string p.k), Fact.eq (.pointer (some ⟨g4, 1, none⟩)), Fact.eq (.string p.v), Fact.eq (.bool false), Fact.eq (.bool true), Fact.eq (.bool true), Fact.any, Fact.any, Fact.eq (.tuple #[]), Fact.any, Fact.any, Fact.any, Fact.any, Fact.any, Fact.any, Fact.any, Fact.any, Fact.any, Fact.any, Fact.eq (.bool true)] (by kernel_rfl) (by kernel_rfl) (by kernel_rfl) (by kernel_rfl) (fun x => by simp only [fillFrom, Act.put, List.setIfInBounds_toArray, List.set_cons_succ, List.set_cons_zero]; rfl) ?_ ?_
      · refine ⟨?_, ?_, ?_, ?_, ?_, ?_, ?_, ?_, ?_, ?_, ?_, ?_, ?_, ?_, ?_, ?_, ?_, ?_, ?_, ?_, ?_, trivial⟩
        · intro x w' hbw hd
          clear hd
          go_wp2_with fail
          exact frPost_mk rfl (by repeat (first | assumption | exact Below.refl _ _ | refine bch ?_ (by assumption) | refine Below.alloc ?_ (by simp) _)) rfl
        · intro x w' hbw hd
          have d0 : x 0 = .pointer (some ⟨g4, 0, none⟩) := hd 0 rfl
          clear hd
          have hgc := cells_of hx hbw hxl
          have c0 : w'.cell? ⟨g4, 0, none⟩ = some (.string p.k) := cell_heap hgc 0
          have c1 : w'.cell? ⟨g4, 1, none⟩ = some (.string p.v) := cell_heap hgc 1
          go_wp2_with fail
          exact frPost_mk rfl (by repeat (first | assumption | exact Below.refl _ _ | refine bch ?_ (by assumption) | refine Below.alloc ?_ (by simp) _)) rfl
        · intro x w' hbw hd
          clear hd
          go_wp2_with fail
          exact frPost_mk rfl (by repeat (first | assumption | exact Below.refl _ _ | refine bch ?_ (by assumption) | refine Below.alloc ?_ (by simp) _)) rfl
        · intro x w' hbw hd
          have d2 : x 2 = .pointer (some ⟨g4, 1, none⟩) := hd 2 rfl
          clear hd
          have hgc := cells_of hx hbw hxl
          have c0 : w'.cell? ⟨g4, 0, none⟩ = some (.string p.k) := cell_heap hgc 0
          have c1 : w'.cell? ⟨g4, 1, none⟩ = some (.string p.v) := cell_heap hgc 1
          go_wp2_with fail
          exact frPost_mk rfl (by repeat (first | assumption | exact Below.refl _ _ | refine bch ?_ (by assumption) | refine Below.alloc ?_ (by simp) _)) rfl
        · intro x w' hbw hd
          have d1 : x 1 = .string p.k := hd 1 rfl
          have d3 : x 3 = .string p.v := hd 3 rfl
          clear hd
          have CC := fits_any p.k p.v w'
          simp only [HFIT.out] at CC
          go_wp2_with (first | (go_at_call 70; refine CC.mono ?_; rintro e wx ⟨rfl, rfl⟩))
          exact frPost_mk rfl (by repeat (first | assumption | exact Below.refl _ _ | refine bch ?_ (by assumption) | refine Below.alloc ?_ (by simp) _)) rfl
        · intro x w' hbw hd
          have d4 : x 4 = .bool false := hd 4 rfl
          clear hd
          go_wp2_with fail
          exact frPost_mk rfl (by repeat (first | assumption | exact Below.refl _ _ | refine bch ?_ (by assumption) | refine Below.alloc ?_ (by simp) _)) rfl
        · intro x w' hbw hd
          have d5 : x 5 = .bool true := hd 5 rfl
          clear hd
          go_wp2_with fail
          exact frPost_mk rfl (by repeat (first | assumption | exact Below.refl _ _ | refine bch ?_ (by assumption) | refine Below.alloc ?_ (by simp) _)) rfl
        · intro x w' hbw hd
          have d6 : x 6 = .bool true := hd 6 rfl
          clear hd
          go_wp2_with fail
          first | exact frPost_mk rfl (by repeat (first | assumption | exact Below.refl _ _ | refine bch ?_ (by assumption) | refine Below.alloc ?_ (by simp) _)) trivial | exact ⟨rfl, rfl, Below.refl _ _, trivial⟩
        · intro x w' hbw hd
          have d6 : x 6 = .bool true := hd 6 rfl
          skip
          clear hd
          go_wp2_with fail
          first | exact frPost_mk rfl (by repeat (first | assumption | exact Below.refl _ _ | refine bch ?_ (by assumption) | refine Below.alloc ?_ (by simp) _)) trivial | exact ⟨rfl, rfl, Below.refl _ _, trivial⟩
        · intro x w' hbw hd
          have d6 : x 6 = .bool true := hd 6 rfl
          skip
          clear hd
          go_wp2_with fail
          first | exact frPost_mk rfl (by repeat (first | assumption | exact Below.refl _ _ | refine bch ?_ (by assumption) | refine Below.alloc ?_ (by simp) _)) rfl | exact ⟨rfl, rfl, Below.refl _ _, rfl⟩
        · intro x w' hbw hd
          have d9 : x 9 = .tuple #[] := hd 9 rfl
          clear hd
          go_wp2_with fail
          first | exact frPost_mk rfl (by repeat (first | assumption | exact Below.refl _ _ | refine bch ?_ (by assumption) | refine Below.alloc ?_ (by simp) _)) trivial | exact ⟨rfl, rfl, Below.refl _ _, trivial⟩
        · intro x w' hbw hd
          have d9 : x 9 = .tuple #[] := hd 9 rfl
          clear hd
          go_wp2_with fail
          first | exact frPost_mk rfl (by repeat (first | assumption | exact Below.refl _ _ | refine bch ?_ (by assumption) | refine Below.alloc ?_ (by simp) _)) trivial | exact ⟨rfl, rfl, Below.refl _ _, trivial⟩
        · intro x w' hbw hd
          have d9 : x 9 = .tuple #[] := hd 9 rfl
          skip
          clear hd
          go_wp2_with fail
          first | exact frPost_mk rfl (by repeat (first | assumption | exact Below.refl _ _ | refine bch ?_ (by assumption) | refine Below.alloc ?_ (by simp) _)) trivial | exact ⟨rfl, rfl, Below.refl _ _, trivial⟩
        · intro x w' hbw hd
          have d9 : x 9 = .tuple #[] := hd 9 rfl
          skip
          skip
          clear hd
          go_wp2_with fail
          first | exact frPost_mk rfl (by repeat (first | assumption | exact Below.refl _ _ | refine bch ?_ (by assumption) | refine Below.alloc ?_ (by simp) _)) trivial | exact ⟨rfl, rfl, Below.refl _ _, trivial⟩
        · intro x w' hbw hd
          have d9 : x 9 = .tuple #[] := hd 9 rfl
          skip
          clear hd
          go_wp2_with fail
          first | exact frPost_mk rfl (by repeat (first | assumption | exact Below.refl _ _ | refine bch ?_ (by assumption) | refine Below.alloc ?_ (by simp) _)) trivial | exact ⟨rfl, rfl, Below.refl _ _, trivial⟩
        · intro x w' hbw hd
          have d9 : x 9 = .tuple #[] := hd 9 rfl
          skip
          clear hd
          go_wp2_with fail
          first | exact frPost_mk rfl (by repeat (first | assumption | exact Below.refl _ _ | refine bch ?_ (by assumption) | refine Below.alloc ?_ (by simp) _)) trivial | exact ⟨rfl, rfl, Below.refl _ _, trivial⟩
        · intro x w' hbw hd
          have d9 : x 9 = .tuple #[] := hd 9 rfl
          clear hd
          go_wp2_with fail
          first | exact frPost_mk rfl (by repeat (first | assumption | exact Below.refl _ _ | refine bch ?_ (by assumption) | refine Below.alloc ?_ (by simp) _)) trivial | exact ⟨rfl, rfl, Below.refl _ _, trivial⟩
        · intro x w' hbw hd
          have d9 : x 9 = .tuple #[] := hd 9 rfl
          skip
          clear hd
          go_wp2_with fail
          first | exact frPost_mk rfl (by repeat (first | assumption | exact Below.refl _ _ | refine bch ?_ (by assumption) | refine Below.alloc ?_ (by simp) _)) trivial | exact ⟨rfl, rfl, Below.refl _ _, trivial⟩
        · intro x w' hbw hd
          have d9 : x 9 = .tuple #[] := hd 9 rfl
          skip
          skip
          clear hd
          go_wp2_with fail
          first | exact frPost_mk rfl (by repeat (first | assumption | exact Below.refl _ _ | refine bch ?_ (by assumption) | refine Below.alloc ?_ (by simp) _)) trivial | exact ⟨rfl, rfl, Below.refl _ _, trivial⟩
        · intro x w' hbw hd
          have d6 : x 6 = .bool true := hd 6 rfl
          have d9 : x 9 = .tuple #[] := hd 9 rfl
          skip
          clear hd
          go_wp2_with fail
          first | exact frPost_mk rfl (by repeat (first | assumption | exact Below.refl _ _ | refine bch ?_ (by assumption) | refine Below.alloc ?_ (by simp) _)) trivial | exact ⟨rfl, rfl, Below.refl _ _, trivial⟩
        · intro x w' hbw hd
          have d6 : x 6 = .bool true := hd 6 rfl
          skip
          clear hd
          go_wp2_with fail
          exact frPost_mk rfl (by repeat (first | assumption | exact Below.refl _ _ | refine bch ?_ (by assumption) | refine Below.alloc ?_ (by simp) _)) rfl
      intro x wf hbw9 hd
      have d20 : x 20 = .bool true := hd 20 (by decide)
      clear hd
      simp only [Nat.zero_add, Nat.reduceAdd, d20]
      obtain rfl : r = false := by rw [← HR.out]; exact goodL_bad hkl hgd
      have hbel := hbel.trans (hbw9.mono hbel.size)
      go_wp2
      go_ret
      exact ⟨rfl, hbel⟩
    by_cases hk0 : k = 0
    · have e0 : decide ((0 : Int) < (k : Int)) = false := decide_eq_false (by omega)
      have e0n : decide (0 < k) = false := decide_eq_false (by omega)
      have HGD : Hid (goodAt l k = true) := Lib.hid (by unfold goodAt; rw [HKM.out]; simp only []; rw [HFIT.out, hk0]; rfl)
      clear hk0
      refine wp_region_facts [Fact.eq (.pointer (some ⟨g4, 0, none⟩)), Fact.eq (.string p.k), Fact.eq (.pointer (some ⟨g4, 1, none⟩)), Fact.eq (.string p.v), Fact.eq (.bool true), Fact.eq (.bool false), Fact.eq (.bool false), Fact.eq (.int .i64 (k : Int)), Fact.eq (.bool false), Fact.eq (.bool false), Fact.any, Fact.any, Fact.any, Fact.any, Fact.any, Fact.any, Fact.any, Fact.any, Fact.any, Fact.eq (.bool false), Fact.eq (.bool false)] (by kernel_rfl) (by kernel_rfl) (by kernel_rfl) (by kernel_rfl) (fun x => by simp only [fillFrom, Act.put, List.setIfInBounds_toArray, List.set_cons_succ, List.set_cons_zero]; rfl) ?_ ?_
      · refine ⟨?_, ?_, ?_, ?_, ?_, ?_, ?_, ?_, ?_, ?_, ?_, ?_, ?_, ?_, ?_, ?_, ?_, ?_, ?_, ?_, ?_, trivial⟩
        · intro x w' hbw hd
          clear hd
          go_wp2_with fail
          exact frPost_mk rfl (by repeat (first | assumption | exact Below.refl _ _ | refine bch ?_ (by assumption) | refine Below.alloc ?_ (by simp) _)) rfl
        · intro x w' hbw hd
          have d0 : x 0 = .pointer (some ⟨g4, 0, none⟩) := hd 0 rfl
          clear hd
          have hgc := cells_of hx hbw hxl
          have c0 : w'.cell? ⟨g4, 0, none⟩ = some (.string p.k) := cell_heap hgc 0
          have c1 : w'.cell? ⟨g4, 1, none⟩ = some (.string p.v) := cell_heap hgc 1
          go_wp2_with fail
          exact frPost_mk rfl (by repeat (first | assumption | exact Below.refl _ _ | refine bch ?_ (by assumption) | refine Below.alloc ?_ (by simp) _)) rfl
        · intro x w' hbw hd
          clear hd
          go_wp2_with fail
          exact frPost_mk rfl (by repeat (first | assumption | exact Below.refl _ _ | refine bch ?_ (by assumption) | refine Below.alloc ?_ (by simp) _)) rfl
        · intro x w' hbw hd
          have d2 : x 2 = .pointer (some ⟨g4, 1, none⟩) := hd 2 rfl
          clear hd
          have hgc := cells_of hx hbw hxl
          have c0 : w'.cell? ⟨g4, 0, none⟩ = some (.string p.k) := cell_heap hgc 0
          have c1 : w'.cell? ⟨g4, 1, none⟩ = some (.string p.v) := cell_heap hgc 1
          go_wp2_with fail
          exact frPost_mk rfl (by repeat (first | assumption | exact Below.refl _ _ | refine bch ?_ (by assumption) | refine Below.alloc ?_ (by simp) _)) rfl
        · intro x w' hbw hd
          have d1 : x 1 = .string p.k := hd 1 rfl
          have d3 : x 3 = .string p.v := hd 3 rfl
          clear hd
          have CC := fits_any p.k p.v w'
          simp only [HFIT.out] at CC
          go_wp2_with (first | (go_at_call 70; refine CC.mono ?_; rintro e wx ⟨rfl, rfl⟩))
          exact frPost_mk rfl (by repeat (first | assumption | exact Below.refl _ _ | refine bch ?_ (by assumption) | refine Below.alloc ?_ (by simp) _)) rfl
        · intro x w' hbw hd
          have d4 : x 4 = .bool true := hd 4 rfl
          clear hd
          go_wp2_with fail
          exact frPost_mk rfl (by repeat (first | assumption | exact Below.refl _ _ | refine bch ?_ (by assumption) | refine Below.alloc ?_ (by simp) _)) rfl
        · intro x w' hbw hd
          have d5 : x 5 = .bool false := hd 5 rfl
          clear hd
          go_wp2_with fail
          exact frPost_mk rfl (by repeat (first | assumption | exact Below.refl _ _ | refine bch ?_ (by assumption) | refine Below.alloc ?_ (by simp) _)) rfl
        · intro x w' hbw hd
          have d6 : x 6 = .bool false := hd 6 rfl
          clear hd
          go_wp2_with fail
          exact frPost_mk rfl (by repeat (first | assumption | exact Below.refl _ _ | refine bch ?_ (by assumption) | refine Below.alloc ?_ (by simp) _)) rfl
        · intro x w' hbw hd
          have d6 : x 6 = .bool false := hd 6 rfl
          have d7 : x 7 = .int .i64 (k : Int) := hd 7 rfl
          clear hd
          go_wp2_with fail
          exact frPost_mk rfl (by repeat (first | assumption | exact Below.refl _ _ | refine bch ?_ (by assumption) | refine Below.alloc ?_ (by simp) _)) rfl
        · intro x w' hbw hd
          have d6 : x 6 = .bool false := hd 6 rfl
          have d8 : x 8 = .bool false := hd 8 rfl
          clear hd
          go_wp2_with fail
          exact frPost_mk rfl (by repeat (first | assumption | exact Below.refl _ _ | refine bch ?_ (by assumption) | refine Below.alloc ?_ (by simp) _)) rfl
        · intro x w' hbw hd
          have d9 : x 9 = .bool false := hd 9 rfl
          clear hd
          go_wp2_with fail
          first | exact frPost_mk rfl (by repeat (first | assumption | exact Below.refl _ _ | refine bch ?_ (by assumption) | refine Below.alloc ?_ (by simp) _)) trivial | exact ⟨rfl, rfl, Below.refl _ _, trivial⟩
        · intro x w' hbw hd
          have d9 : x 9 = .bool false := hd 9 rfl
          clear hd
          go_wp2_with fail
          first | exact frPost_mk rfl (by repeat (first | assumption | exact Below.refl _ _ | refine bch ?_ (by assumption) | refine Below.alloc ?_ (by simp) _)) trivial | exact ⟨rfl, rfl, Below.refl _ _, trivial⟩
        · intro x w' hbw hd
          have d9 : x 9 = .bool false := hd 9 rfl
          skip
          clear hd
          go_wp2_with fail
          first | exact frPost_mk rfl (by repeat (first | assumption | exact Below.refl _ _ | refine bch ?_ (by assumption) | refine Below.alloc ?_ (by simp) _)) trivial | exact ⟨rfl, rfl, Below.refl _ _, trivial⟩
        · intro x w' hbw hd
          have d9 : x 9 = .bool false := hd 9 rfl
          skip
          skip
          clear hd
          go_wp2_with fail
          first | exact frPost_mk rfl (by repeat (first | assumption | exact Below.refl _ _ | refine bch ?_ (by assumption) | refine Below.alloc ?_ (by simp) _)) trivial | exact ⟨rfl, rfl, Below.refl _ _, trivial⟩
        · intro x w' hbw hd
          have d9 : x 9 = .bool false := hd 9 rfl
          skip
          clear hd
          go_wp2_with fail
          first | exact frPost_mk rfl (by repeat (first | assumption | exact Below.refl _ _ | refine bch ?_ (by assumption) | refine Below.alloc ?_ (by simp) _)) trivial | exact ⟨rfl, rfl, Below.refl _ _, trivial⟩
        · intro x w' hbw hd
          have d9 : x 9 = .bool false := hd 9 rfl
          skip
          clear hd
          go_wp2_with fail
          first | exact frPost_mk rfl (by repeat (first | assumption | exact Below.refl _ _ | refine bch ?_ (by assumption) | refine Below.alloc ?_ (by simp) _)) trivial | exact ⟨rfl, rfl, Below.refl _ _, trivial⟩
        · intro x w' hbw hd
          have d9 : x 9 = .bool false := hd 9 rfl
          clear hd
          go_wp2_with fail
          first | exact frPost_mk rfl (by repeat (first | assumption | exact Below.refl _ _ | refine bch ?_ (by assumption) | refine Below.alloc ?_ (by simp) _)) trivial | exact ⟨rfl, rfl, Below.refl _ _, trivial⟩
        · intro x w' hbw hd
          have d9 : x 9 = .bool false := hd 9 rfl
          skip
          clear hd
          go_wp2_with fail
          first | exact frPost_mk rfl (by repeat (first | assumption | exact Below.refl _ _ | refine bch ?_ (by assumption) | refine Below.alloc ?_ (by simp) _)) trivial | exact ⟨rfl, rfl, Below.refl _ _, trivial⟩
        · intro x w' hbw hd
          have d9 : x 9 = .bool false := hd 9 rfl
          skip
          skip
          clear hd
          go_wp2_with fail
          first | exact frPost_mk rfl (by repeat (first | assumption | exact Below.refl _ _ | refine bch ?_ (by assumption) | refine Below.alloc ?_ (by simp) _)) trivial | exact ⟨rfl, rfl, Below.refl _ _, trivial⟩
        · intro x w' hbw hd
          have d6 : x 6 = .bool false := hd 6 rfl
          have d9 : x 9 = .bool false := hd 9 rfl
          skip
          clear hd
          go_wp2_with fail
          exact frPost_mk rfl (by repeat (first | assumption | exact Below.refl _ _ | refine bch ?_ (by assumption) | refine Below.alloc ?_ (by simp) _)) rfl
        · intro x w' hbw hd
          have d6 : x 6 = .bool false := hd 6 rfl
          have d19 : x 19 = .bool false := hd 19 rfl
          clear hd
          go_wp2_with fail
          exact frPost_mk rfl (by repeat (first | assumption | exact Below.refl _ _ | refine bch ?_ (by assumption) | refine Below.alloc ?_ (by simp) _)) rfl
      intro x wf hbw9 hd
      have d20 : x 20 = .bool false := hd 20 (by decide)
      clear hd
      simp only [Nat.zero_add, Nat.reduceAdd, d20]
      have hbel := hbel.trans (hbw9.mono hbel.size)
      go_wp2
      go_roundw
      case rel => exact ⟨k + 1, by omega, by go_num, Lib.hid (fun i hi => by
          rcases Nat.lt_or_ge i k with h9 | h9
          · exact HA.out i h9
          · obtain rfl : i = k := by omega
            exact HGD.out), hbel⟩
      case measure => (simp [intOf]) <;> omega
    have e0 : decide ((0 : Int) < (k : Int)) = true := decide_eq_true (by omega)
    have e0n : decide (0 < k) = true := decide_eq_true (by omega)
    obtain ⟨k9, hk9⟩ : ∃ q, k = q + 1 := ⟨k - 1, by omega⟩
    have hkl9 : k9 < l.length := by omega
    obtain ⟨b2, o2, he2, _, hg2⟩ := pr_range (hr.below hbel) hkl9
    simp only [Option.some.injEq, Addr.mk.injEq, and_true] at he2
    obtain ⟨rfl, rfl⟩ := he2
    have hkm9 := List.getElem?_eq_getElem hkl9
    obtain ⟨q, hq9⟩ : ∃ q, l[k9] = q := ⟨_, rfl⟩
    rw [hq9] at hg2 hkm9
    have hq0 : W4.cell? ⟨b1, o1 + k9 * 2, none⟩ = some (.string q.k) := hg2 0 _ rfl
    have HK9 := Lib.hid hk9
    obtain ⟨ls, hls⟩ : ∃ b, lessK q.k p.k = b := ⟨_, rfl⟩
    have HLESS := Lib.hid hls
    have hga : goodAt l k = ls := by
      unfold goodAt
      rw [HKM.out]
      simp only []
      rw [HFIT.out, beq_eq_false_iff_ne.2 hk0, hk9, Nat.add_sub_cancel, hkm9]
      simp only []
      rw [hls]
      rfl
    have HGA := Lib.hid hga
    clear hk9 hls hga hkm9 hq9 hg2 hk0
    cases ls
    · have hgd := HGA.out
      clear HGA
      refine wp_region_facts [Fact.eq (.pointer (some ⟨g4, 0, none⟩)), Fact.eq (.string p.k), Fact.eq (.pointer (some ⟨g4, 1, none⟩)), Fact.eq (.string p.v), Fact.eq (.bool true), Fact.eq (.bool false), Fact.eq (.bool false), Fact.eq (.int .i64 (k : Int)), Fact.eq (.bool true), Fact.eq (.bool true), Fact.eq (.slice (some ⟨b1, o1, none⟩) n cap), Fact.eq (.int .i64 (k : Int)), Fact.eq (.int .i64 (k9 : Int)), Fact.eq (.pointer (some ⟨b1, o1 + k9 * 2, none⟩)), Fact.eq (.pointer (some ⟨b1, o1 + k9 * 2, none⟩)), Fact.eq (.string q.k), Fact.eq (.pointer (some ⟨g4, 0, none⟩)), Fact.eq (.string p.k), Fact.eq (.bool true), Fact.eq (.bool true), Fact.eq (.bool true)] (by kernel_rfl) (by kernel_rfl) (by kernel_rfl) (by kernel_rfl) (fun x => by simp only [fillFrom, Act.put, List.setIfInBounds_toArray, List.set_cons_succ, List.set_cons_zero]; rfl) ?_ ?_
      · refine ⟨?_, ?_, ?_, ?_, ?_, ?_, ?_, ?_, ?_, ?_, ?_, ?_, ?_, ?_, ?_, ?_, ?_, ?_, ?_, ?_, ?_, trivial⟩
        · intro x w' hbw hd
          clear hd
          go_wp2_with fail
          exact frPost_mk rfl (by repeat (first | assumption | exact Below.refl _ _ | refine bch ?_ (by assumption) | refine Below.alloc ?_ (by simp) _)) rfl
        · intro x w' hbw hd
          have d0 : x 0 = .pointer (some ⟨g4, 0, none⟩) := hd 0 rfl
          clear hd
          have hgc := cells_of hx hbw hxl
          have c0 : w'.cell? ⟨g4, 0, none⟩ = some (.string p.k) := cell_heap hgc 0
          have c1 : w'.cell? ⟨g4, 1, none⟩ = some (.string p.v) := cell_heap hgc 1
          go_wp2_with fail
          exact frPost_mk rfl (by repeat (first | assumption | exact Below.refl _ _ | refine bch ?_ (by assumption) | refine Below.alloc ?_ (by simp) _)) rfl
        · intro x w' hbw hd
          clear hd
          go_wp2_with fail
          exact frPost_mk rfl (by repeat (first | assumption | exact Below.refl _ _ | refine bch ?_ (by assumption) | refine Below.alloc ?_ (by simp) _)) rfl
        · intro x w' hbw hd
          have d2 : x 2 = .pointer (some ⟨g4, 1, none⟩) := hd 2 rfl
          clear hd
          have hgc := cells_of hx hbw hxl
          have c0 : w'.cell? ⟨g4, 0, none⟩ = some (.string p.k) := cell_heap hgc 0
          have c1 : w'.cell? ⟨g4, 1, none⟩ = some (.string p.v) := cell_heap hgc 1
          go_wp2_with fail
          exact frPost_mk rfl (by repeat (first | assumption | exact Below.refl _ _ | refine bch ?_ (by assumption) | refine Below.alloc ?_ (by simp) _)) rfl
        · intro x w' hbw hd
          have d1 : x 1 = .string p.k := hd 1 rfl
          have d3 : x 3 = .string p.v := hd 3 rfl
          clear hd
          have CC := fits_any p.k p.v w'
          simp only [HFIT.out] at CC
          go_wp2_with (first | (go_at_call 70; refine CC.mono ?_; rintro e wx ⟨rfl, rfl⟩))
          exact frPost_mk rfl (by repeat (first | assumption | exact Below.refl _ _ | refine bch ?_ (by assumption) | refine Below.alloc ?_ (by simp) _)) rfl
        · intro x w' hbw hd
          have d4 : x 4 = .bool true := hd 4 rfl
          clear hd
          go_wp2_with fail
          exact frPost_mk rfl (by repeat (first | assumption | exact Below.refl _ _ | refine bch ?_ (by assumption) | refine Below.alloc ?_ (by simp) _)) rfl
        · intro x w' hbw hd
          have d5 : x 5 = .bool false := hd 5 rfl
          clear hd
          go_wp2_with fail
          exact frPost_mk rfl (by repeat (first | assumption | exact Below.refl _ _ | refine bch ?_ (by assumption) | refine Below.alloc ?_ (by simp) _)) rfl
        · intro x w' hbw hd
          have d6 : x 6 = .bool false := hd 6 rfl
          clear hd
          go_wp2_with fail
          exact frPost_mk rfl (by repeat (first | assumption | exact Below.refl _ _ | refine bch ?_ (by assumption) | refine Below.alloc ?_ (by simp) _)) rfl
        · intro x w' hbw hd
          have d6 : x 6 = .bool false := hd 6 rfl
          have d7 : x 7 = .int .i64 (k : Int) := hd 7 rfl
          clear hd
          go_wp2_with fail
          exact frPost_mk rfl (by repeat (first | assumption | exact Below.refl _ _ | refine bch ?_ (by assumption) | refine Below.alloc ?_ (by simp) _)) rfl
        · intro x w' hbw hd
          have d6 : x 6 = .bool false := hd 6 rfl
          have d8 : x 8 = .bool true := hd 8 rfl
          clear hd
          go_wp2_with fail
          exact frPost_mk rfl (by repeat (first | assumption | exact Below.refl _ _ | refine bch ?_ (by assumption) | refine Below.alloc ?_ (by simp) _)) rfl
        · intro x w' hbw hd
          have d9 : x 9 = .bool true := hd 9 rfl
          clear hd
          go_wp2_with fail
          exact frPost_mk rfl (by repeat (first | assumption | exact Below.refl _ _ | refine bch ?_ (by assumption) | refine Below.alloc ?_ (by simp) _)) rfl
        · intro x w' hbw hd
          have d9 : x 9 = .bool true := hd 9 rfl
          clear hd
          go_wp2_with fail
          exact frPost_mk rfl (by repeat (first | assumption | exact Below.refl _ _ | refine bch ?_ (by assumption) | refine Below.alloc ?_ (by simp) _)) rfl
        · intro x w' hbw hd
          have d9 : x 9 = .bool true := hd 9 rfl
          have d11 : x 11 = .int .i64 (k : Int) := hd 11 rfl
          clear hd
          have hsub : (k : Int) - 1 = ((k9 : Nat) : Int) := by have := HK9.out; omega
          have hs1 : (0 : Int) ≤ (k : Int) - 1 := by have := HK9.out; omega
          have hs2 : (k : Int) - 1 ≤ 9223372036854775807 := by omega
          go_wp2_with fail
          exact frPost_mk rfl (by repeat (first | assumption | exact Below.refl _ _ | refine bch ?_ (by assumption) | refine Below.alloc ?_ (by simp) _)) (by show Value.int .i64 _ = Value.int .i64 _; first | rfl | rw [hsub])
        · intro x w' hbw hd
          have d9 : x 9 = .bool true := hd 9 rfl
          have d10 : x 10 = .slice (some ⟨b1, o1, none⟩) n cap := hd 10 rfl
          have d12 : x 12 = .int .i64 (k9 : Int) := hd 12 rfl
          clear hd
          have n0 : (0 : Int) ≤ (k9 : Int) := by omega
          have n1 : (k9 : Int) < (n : Int) := by have := HK9.out; omega
          have n2 : ((k9 : Nat) : Int).toNat = k9 := by omega
          go_wp2_with fail
          exact frPost_mk rfl (by repeat (first | assumption | exact Below.refl _ _ | refine bch ?_ (by assumption) | refine Below.alloc ?_ (by simp) _)) (by first | rfl | (show Value.pointer _ = Value.pointer _; simp))
        · intro x w' hbw hd
          have d9 : x 9 = .bool true := hd 9 rfl
          have d13 : x 13 = .pointer (some ⟨b1, o1 + k9 * 2, none⟩) := hd 13 rfl
          clear hd
          go_wp2_with fail
          exact frPost_mk rfl (by repeat (first | assumption | exact Below.refl _ _ | refine bch ?_ (by assumption) | refine Below.alloc ?_ (by simp) _)) rfl
        · intro x w' hbw hd
          have d9 : x 9 = .bool true := hd 9 rfl
          have d14 : x 14 = .pointer (some ⟨b1, o1 + k9 * 2, none⟩) := hd 14 rfl
          clear hd
          have cq : w'.cell? ⟨b1, o1 + k9 * 2, none⟩ = some (.string q.k) := by rw [hbw.cell (p := ⟨b1, o1 + k9 * 2, none⟩) hb1]; exact hq0
          go_wp2_with fail
          exact frPost_mk rfl (by repeat (first | assumption | exact Below.refl _ _ | refine bch ?_ (by assumption) | refine Below.alloc ?_ (by simp) _)) rfl
        · intro x w' hbw hd
          have d9 : x 9 = .bool true := hd 9 rfl
          clear hd
          go_wp2_with fail
          exact frPost_mk rfl (by repeat (first | assumption | exact Below.refl _ _ | refine bch ?_ (by assumption) | refine Below.alloc ?_ (by simp) _)) rfl
        · intro x w' hbw hd
          have d9 : x 9 = .bool true := hd 9 rfl
          have d16 : x 16 = .pointer (some ⟨g4, 0, none⟩) := hd 16 rfl
          clear hd
          have hgc := cells_of hx hbw hxl
          have c0 : w'.cell? ⟨g4, 0, none⟩ = some (.string p.k) := cell_heap hgc 0
          have c1 : w'.cell? ⟨g4, 1, none⟩ = some (.string p.v) := cell_heap hgc 1
          go_wp2_with fail
          exact frPost_mk rfl (by repeat (first | assumption | exact Below.refl _ _ | refine bch ?_ (by assumption) | refine Below.alloc ?_ (by simp) _)) rfl
        · intro x w' hbw hd
          have d9 : x 9 = .bool true := hd 9 rfl
          have d15 : x 15 = .string q.k := hd 15 rfl
          have d17 : x 17 = .string p.k := hd 17 rfl
          clear hd
          have hle : Op.bytesLess q.k.toList p.k.toList = false := by rw [ByteArray.toList_eq, ByteArray.toList_eq]; exact HLESS.out
          go_wp2_with fail
          exact frPost_mk rfl (by repeat (first | assumption | exact Below.refl _ _ | refine bch ?_ (by assumption) | refine Below.alloc ?_ (by simp) _)) rfl
        · intro x w' hbw hd
          have d6 : x 6 = .bool false := hd 6 rfl
          have d9 : x 9 = .bool true := hd 9 rfl
          have d18 : x 18 = .bool true := hd 18 rfl
          clear hd
          go_wp2_with fail
          exact frPost_mk rfl (by repeat (first | assumption | exact Below.refl _ _ | refine bch ?_ (by assumption) | refine Below.alloc ?_ (by simp) _)) rfl
        · intro x w' hbw hd
          have d6 : x 6 = .bool false := hd 6 rfl
          have d19 : x 19 = .bool true := hd 19 rfl
          clear hd
          go_wp2_with fail
          exact frPost_mk rfl (by repeat (first | assumption | exact Below.refl _ _ | refine bch ?_ (by assumption) | refine Below.alloc ?_ (by simp) _)) rfl
      intro x wf hbw9 hd
      have d20 : x 20 = .bool true := hd 20 (by decide)
      clear hd
      simp only [Nat.zero_add, Nat.reduceAdd, d20]
      obtain rfl : r = false := by rw [← HR.out]; exact goodL_bad hkl hgd
      have hbel := hbel.trans (hbw9.mono hbel.size)
      go_wp2
      go_ret
      exact ⟨rfl, hbel⟩
    · have HGD : Hid (goodAt l k = true) := HGA
      clear HGA
      refine wp_region_facts [Fact.eq (.pointer (some ⟨g4, 0, none⟩)), Fact.eq (.string p.k), Fact.eq (.pointer (some ⟨g4, 1, none⟩)), Fact.eq (.string p.v), Fact.eq (.bool true), Fact.eq (.bool false), Fact.eq (.bool false), Fact.eq (.int .i64 (k : Int)), Fact.eq (.bool true), Fact.eq (.bool true), Fact.eq (.slice (some ⟨b1, o1, none⟩) n cap), Fact.eq (.int .i64 (k : Int)), Fact.eq (.int .i64 (k9 : Int)), Fact.eq (.pointer (some ⟨b1, o1 + k9 * 2, none⟩)), Fact.eq (.pointer (some ⟨b1, o1 + k9 * 2, none⟩)), Fact.eq (.string q.k), Fact.eq (.pointer (some ⟨g4, 0, none⟩)), Fact.eq (.string p.k), Fact.eq (.bool false), Fact.eq (.bool false), Fact.eq (.bool false)] (by kernel_rfl) (by kernel_rfl) (by kernel_rfl) (by kernel_rfl) (fun x => by simp only [fillFrom, Act.put, List.setIfInBounds_toArray, List.set_cons_succ, List.set_cons_zero]; rfl) ?_ ?_
      · refine ⟨?_, ?_, ?_, ?_, ?_, ?_, ?_, ?_, ?_, ?_, ?_, ?_, ?_, ?_, ?_, ?_, ?_, ?_, ?_, ?_, ?_, trivial⟩
        · intro x w' hbw hd
          clear hd
          go_wp2_with fail
          exact frPost_mk rfl (by repeat (first | assumption | exact Below.refl _ _ | refine bch ?_ (by assumption) | refine Below.alloc ?_ (by simp) _)) rfl
        · intro x w' hbw hd
          have d0 : x 0 = .pointer (some ⟨g4, 0, none⟩) := hd 0 rfl
          clear hd
          have hgc := cells_of hx hbw hxl
          have c0 : w'.cell? ⟨g4, 0, none⟩ = some (.string p.k) := cell_heap hgc 0
          have c1 : w'.cell? ⟨g4, 1, none⟩ = some (.string p.v) := cell_heap hgc 1
          go_wp2_with fail
          exact frPost_mk rfl (by repeat (first | assumption | exact Below.refl _ _ | refine bch ?_ (by assumption) | refine Below.alloc ?_ (by simp) _)) rfl
        · intro x w' hbw hd
          clear hd
          go_wp2_with fail
          exact frPost_mk rfl (by repeat (first | assumption | exact Below.refl _ _ | refine bch ?_ (by assumption) | refine Below.alloc ?_ (by simp) _)) rfl
        · intro x w' hbw hd
          have d2 : x 2 = .pointer (some ⟨g4, 1, none⟩) := hd 2 rfl
          clear hd
          have hgc := cells_of hx hbw hxl
          have c0 : w'.cell? ⟨g4, 0, none⟩ = some (.string p.k) := cell_heap hgc 0
          have c1 : w'.cell? ⟨g4, 1, none⟩ = some (.string p.v) := cell_heap hgc 1
          go_wp2_with fail
          exact frPost_mk rfl (by repeat (first | assumption | exact Below.refl _ _ | refine bch ?_ (by assumption) | refine Below.alloc ?_ (by simp) _)) rfl
        · intro x w' hbw hd
          have d1 : x 1 = .string p.k := hd 1 rfl
          have d3 : x 3 = .string p.v := hd 3 rfl
          clear hd
          have CC := fits_any p.k p.v w'
          simp only [HFIT.out] at CC
          go_wp2_with (first | (go_at_call 70; refine CC.mono ?_; rintro e wx ⟨rfl, rfl⟩))
          exact frPost_mk rfl (by repeat (first | assumption | exact Below.refl _ _ | refine bch ?_ (by assumption) | refine Below.alloc ?_ (by simp) _)) rfl
        · intro x w' hbw hd
          have d4 : x 4 = .bool true := hd 4 rfl
          clear hd
          go_wp2_with fail
          exact frPost_mk rfl (by repeat (first | assumption | exact Below.refl _ _ | refine bch ?_ (by assumption) | refine Below.alloc ?_ (by simp) _)) rfl
        · intro x w' hbw hd
          have d5 : x 5 = .bool false := hd 5 rfl
          clear hd
          go_wp2_with fail
          exact frPost_mk rfl (by repeat (first | assumption | exact Below.refl _ _ | refine bch ?_ (by assumption) | refine Below.alloc ?_ (by simp) _)) rfl
        · intro x w' hbw hd
          have d6 : x 6 = .bool false := hd 6 rfl
          clear hd
          go_wp2_with fail
          exact frPost_mk rfl (by repeat (first | assumption | exact Below.refl _ _ | refine bch ?_ (by assumption) | refine Below.alloc ?_ (by simp) _)) rfl
        · intro x w' hbw hd
          have d6 : x 6 = .bool false := hd 6 rfl
          have d7 : x 7 = .int .i64 (k : Int) := hd 7 rfl
          clear hd
          go_wp2_with fail
          exact frPost_mk rfl (by repeat (first | assumption | exact Below.refl _ _ | refine bch ?_ (by assumption) | refine Below.alloc ?_ (by simp) _)) rfl
        · intro x w' hbw hd
          have d6 : x 6 = .bool false := hd 6 rfl
          have d8 : x 8 = .bool true := hd 8 rfl
          clear hd
          go_wp2_with fail
          exact frPost_mk rfl (by repeat (first | assumption | exact Below.refl _ _ | refine bch ?_ (by assumption) | refine Below.alloc ?_ (by simp) _)) rfl
        · intro x w' hbw hd
          have d9 : x 9 = .bool true := hd 9 rfl
          clear hd
          go_wp2_with fail
          exact frPost_mk rfl (by repeat (first | assumption | exact Below.refl _ _ | refine bch ?_ (by assumption) | refine Below.alloc ?_ (by simp) _)) rfl
        · intro x w' hbw hd
          have d9 : x 9 = .bool true := hd 9 rfl
          clear hd
          go_wp2_with fail
          exact frPost_mk rfl (by repeat (first | assumption | exact Below.refl _ _ | refine bch ?_ (by assumption) | refine Below.alloc ?_ (by simp) _)) rfl
        · intro x w' hbw hd
          have d9 : x 9 = .bool true := hd 9 rfl
          have d11 : x 11 = .int .i64 (k : Int) := hd 11 rfl
          clear hd
          have hsub : (k : Int) - 1 = ((k9 : Nat) : Int) := by have := HK9.out; omega
          have hs1 : (0 : Int) ≤ (k : Int) - 1 := by have := HK9.out; omega
          have hs2 : (k : Int) - 1 ≤ 9223372036854775807 := by omega
          go_wp2_with fail
          exact frPost_mk rfl (by repeat (first | assumption | exact Below.refl _ _ | refine bch ?_ (by assumption) | refine Below.alloc ?_ (by simp) _)) (by show Value.int .i64 _ = Value.int .i64 _; first | rfl | rw [hsub])
        · intro x w' hbw hd
          have d9 : x 9 = .bool true := hd 9 rfl
          have d10 : x 10 = .slice (some ⟨b1, o1, none⟩) n cap := hd 10 rfl
          have d12 : x 12 = .int .i64 (k9 : Int) := hd 12 rfl
          clear hd
          have n0 : (0 : Int) ≤ (k9 : Int) := by omega
          have n1 : (k9 : Int) < (n : Int) := by have := HK9.out; omega
          have n2 : ((k9 : Nat) : Int).toNat = k9 := by omega
          go_wp2_with fail
          exact frPost_mk rfl (by repeat (first | assumption | exact Below.refl _ _ | refine bch ?_ (by assumption) | refine Below.alloc ?_ (by simp) _)) (by first | rfl | (show Value.pointer _ = Value.pointer _; simp))
        · intro x w' hbw hd
          have d9 : x 9 = .bool true := hd 9 rfl
          have d13 : x 13 = .pointer (some ⟨b1, o1 + k9 * 2, none⟩) := hd 13 rfl
          clear hd
          go_wp2_with fail
          exact frPost_mk rfl (by repeat (first | assumption | exact Below.refl _ _ | refine bch ?_ (by assumption) | refine Below.alloc ?_ (by simp) _)) rfl
        · intro x w' hbw hd
          have d9 : x 9 = .bool true := hd 9 rfl
          have d14 : x 14 = .pointer (some ⟨b1, o1 + k9 * 2, none⟩) := hd 14 rfl
          clear hd
          have cq : w'.cell? ⟨b1, o1 + k9 * 2, none⟩ = some (.string q.k) := by rw [hbw.cell (p := ⟨b1, o1 + k9 * 2, none⟩) hb1]; exact hq0
          go_wp2_with fail
          exact frPost_mk rfl (by repeat (first | assumption | exact Below.refl _ _ | refine bch ?_ (by assumption) | refine Below.alloc ?_ (by simp) _)) rfl
        · intro x w' hbw hd
          have d9 : x 9 = .bool true := hd 9 rfl
          clear hd
          go_wp2_with fail
          exact frPost_mk rfl (by repeat (first | assumption | exact Below.refl _ _ | refine bch ?_ (by assumption) | refine Below.alloc ?_ (by simp) _)) rfl
        · intro x w' hbw hd
          have d9 : x 9 = .bool true := hd 9 rfl
          have d16 : x 16 = .pointer (some ⟨g4, 0, none⟩) := hd 16 rfl
          clear hd
          have hgc := cells_of hx hbw hxl
          have c0 : w'.cell? ⟨g4, 0, none⟩ = some (.string p.k) := cell_heap hgc 0
          have c1 : w'.cell? ⟨g4, 1, none⟩ = some (.string p.v) := cell_heap hgc 1
          go_wp2_with fail
          exact frPost_mk rfl (by repeat (first | assumption | exact Below.refl _ _ | refine bch ?_ (by assumption) | refine Below.alloc ?_ (by simp) _)) rfl
        · intro x w' hbw hd
          have d9 : x 9 = .bool true := hd 9 rfl
          have d15 : x 15 = .string q.k := hd 15 rfl
          have d17 : x 17 = .string p.k := hd 17 rfl
          clear hd
          have hle : Op.bytesLess q.k.toList p.k.toList = true := by rw [ByteArray.toList_eq, ByteArray.toList_eq]; exact HLESS.out
          go_wp2_with fail
          exact frPost_mk rfl (by repeat (first | assumption | exact Below.refl _ _ | refine bch ?_ (by assumption) | refine Below.alloc ?_ (by simp) _)) rfl
        · intro x w' hbw hd
          have d6 : x 6 = .bool false := hd 6 rfl
          have d9 : x 9 = .bool true := hd 9 rfl
          have d18 : x 18 = .bool false := hd 18 rfl
          clear hd
          go_wp2_with fail
          exact frPost_mk rfl (by repeat (first | assumption | exact Below.refl _ _ | refine bch ?_ (by assumption) | refine Below.alloc ?_ (by simp) _)) rfl
        · intro x w' hbw hd
          have d6 : x 6 = .bool false := hd 6 rfl
          have d19 : x 19 = .bool false := hd 19 rfl
          clear hd
          go_wp2_with fail
          exact frPost_mk rfl (by repeat (first | assumption | exact Below.refl _ _ | refine bch ?_ (by assumption) | refine Below.alloc ?_ (by simp) _)) rfl
      intro x wf hbw9 hd
      have d20 : x 20 = .bool false := hd 20 (by decide)
      clear hd
      simp only [Nat.zero_add, Nat.reduceAdd, d20]
      have hbel := hbel.trans (hbw9.mono hbel.size)
      go_wp2
      go_roundw
      case rel => exact ⟨k + 1, by omega, by go_num, Lib.hid (fun i hi => by
          rcases Nat.lt_or_ge i k with h9 | h9
          · exact HA.out i h9
          · obtain rfl : i = k := by omega
            exact HGD.out), hbel⟩
      case measure => (simp [intOf]) <;> omega
theorem cmp_zero : ∀ (l m : List UInt8), (Lib.compareBytes l m == 0) = decide (l = m)
  | [], [] => rfl
  | [], _ :: _ => rfl
  | _ :: _, [] => rfl
  | a :: l, b :: m => by
    unfold Lib.compareBytes
    have ih := cmp_zero l m
    by_cases h1 : a < b
    · have hne : a ≠ b := fun e => by rw [e] at h1; exact UInt8.lt_irrefl _ h1
      simp [h1, hne]
    · by_cases h2 : b < a
      · have hne : a ≠ b := fun e => by rw [e] at h2; exact UInt8.lt_irrefl _ h2
        simp [h1, h2, hne]
      · have he : a = b := UInt8.le_antisymm (UInt8.not_lt.1 h2) (UInt8.not_lt.1 h1)
        subst he
        simp [h1, ih]
def cmpK (x y : ByteArray) : Int := Lib.compareBytes x.data.toList y.data.toList
set_option maxRecDepth 100000 in
set_option maxHeartbeats 1600000 in
theorem clo_any (k v key : ByteArray) (w : World) : Calls Tryd.prog 72 #[.agg #[.string k, .string v], .string key] w fun e w' => e = .returned (.int .i64 (cmpK k key)) ∧ Below w.heap.size w w' := by
  have CC := fun W => Tryd.strings_Compare k key W
  have hq := heap_push w #[.string k, .string v] 41
  have hb0 : Below w.heap.size w (w.alloc (.cells #[.string k, .string v] 41)) := Below.alloc (Below.refl _ _) (Nat.le_refl _) _
  go_enter Tryd.func72, Tryd.ntmps72
  go_upto_region 1 with fail
  refine wp_nameE _ (fun W1 hX => ?_)
  have hx : W1.heap[w.heap.size]? = some (.cells #[.string k, .string v] 41 (0, 0)) := by rw [hX]; exact hq
  have hbel : Below w.heap.size w W1 := by rw [hX]; exact hb0
  clear hX hq hb0
  have c0 := cell_heap hx 0
  go_wp2_with (go_at_call 73; refine (CC _).mono ?_; rintro e w2 ⟨rfl, rfl⟩)
  go_ret
  exact ⟨rfl, hbel⟩
theorem lessK_trans {x y z : ByteArray} (h1 : lessK x y = true) (h2 : lessK y z = true) : lessK x z = true := less_trans _ _ _ h1 h2
theorem cmpK_less (x y : ByteArray) : decide (cmpK x y < 0) = lessK x y := cmp_less _ _
theorem cmpK_eq (x y : ByteArray) : (cmpK x y == 0) = decide (x = y) := by
  unfold cmpK
  rw [cmp_zero]
  by_cases h : x = y
  · rw [h]; simp
  · rw [decide_eq_false h, decide_eq_false (fun e => h (by apply ByteArray.ext; apply Array.ext'; exact e))]
def placeL (l : List Pr) (key : ByteArray) : Nat := l.findIdx (fun p => !lessK p.k key)
def foundL (l : List Pr) (key : ByteArray) : Bool := match l[placeL l key]? with | some p => decide (p.k = key) | none => false
def sortedL (l : List Pr) : Prop := ∀ (i j : Nat) (p q : Pr), i < j → l[i]? = some p → l[j]? = some q → lessK p.k q.k = true
theorem placeL_at {l : List Pr} {key : ByteArray} {i : Nat} (hi : i ≤ l.length) (h1 : ∀ (t : Nat) p, t < i → l[t]? = some p → lessK p.k key = true) (h2 : ∀ (t : Nat) p, i ≤ t → l[t]? = some p → lessK p.k key = false) : placeL l key = i := by
  unfold placeL
  rcases Nat.lt_or_ge i l.length with h | h
  · rw [List.findIdx_eq h]
    refine ⟨by rw [h2 i l[i] (Nat.le_refl _) (List.getElem?_eq_getElem h)]; rfl, fun j hj => ?_⟩
    rw [h1 j _ hj (List.getElem?_eq_getElem (by omega))]
    rfl
  · obtain rfl : i = l.length := by omega
    rw [List.findIdx_eq_length]
    intro p hp
    obtain ⟨t, ht, rfl⟩ := List.getElem_of_mem hp
    rw [h1 t _ ht (List.getElem?_eq_getElem ht)]
    rfl
set_option maxRecDepth 100000 in
set_option maxHeartbeats 6400000 in
theorem search_any (a : Option Addr) (n cap : Nat) (l : List Pr) (key : ByteArray) (w : World) (hr : RowAt w a (l.flatMap Pr.cells)) (hn : l.length = n) (hcap : n ≤ cap) (hcm : cap ≤ maxLen) (hn6 : n ≤ 1000000) (hso : sortedL l) :
    Calls Tryd.prog 71 #[.slice a n cap, .string key, .func (.func 72) #[] #[]] w fun e w' => e = .returned (.tuple #[.int .i64 (placeL l key : Nat), .bool (foundL l key)]) ∧ Below w.heap.size w w' := by
  unfold maxLen at hcm
  have HN := Lib.hid hn
  have HSO := Lib.hid hso
  clear hn hso
  go_enter Tryd.func71, Tryd.ntmps71
  go_upto_region 3 with fail
  go_loopw [9, 10] (fun vi vj wr => ∃ i j : Nat, i ≤ j ∧ j ≤ n ∧ vi = .int .i64 i ∧ vj = .int .i64 j ∧ Hid (∀ (t : Nat) p, t < i → l[t]? = some p → lessK p.k key = true) ∧ Hid (∀ (t : Nat) p, j ≤ t → l[t]? = some p → lessK p.k key = false) ∧ Below w.heap.size w wr) (fun vi vj _ => (intOf vj).toNat - (intOf vi).toNat)
  case atStart => exact ⟨0, n, Nat.zero_le _, Nat.le_refl _, rfl, rfl, Lib.hid (fun t p h => by omega), Lib.hid (fun t p h h2 => by have := (List.getElem?_eq_some_iff.1 h2).1; rw [HN.out] at this; omega), Below.refl _ _⟩
  case round =>
    obtain ⟨i, j, hij, hj, rfl, rfl, HI, HJ, hbel⟩ := hrel
    by_cases hlt : i < j
    rotate_left
    · have d9 : decide ((i : Int) < (j : Int)) = false := decide_eq_false (by omega)
      have d9n : decide (i < j) = false := decide_eq_false hlt
      obtain rfl : i = j := by omega
      have hpl : placeL l key = i := placeL_at (by rw [HN.out]; exact hj) HI.out HJ.out
      by_cases hin : i < n
      · have f1 : decide ((i : Int) < (n : Int)) = true := decide_eq_true (by omega)
        have f1n : decide (i < n) = true := decide_eq_true hin
        have hil : i < l.length := by rw [HN.out]; exact hin
        obtain ⟨b1, o1, rfl, hb1, hg1⟩ := pr_range (hr.below hbel) hil
        have him := List.getElem?_eq_getElem hil
        obtain ⟨p, hp9⟩ : ∃ p, l[i] = p := ⟨_, rfl⟩
        rw [hp9] at hg1 him
        have hfo : foundL l key = (cmpK p.k key == 0) := by unfold foundL; rw [hpl, him, cmpK_eq]
        have CC := fun W : World => (show Calls Tryd.prog 72 #[.agg p.cells.toArray, .string key] W _ from clo_any p.k p.v key W)
        have HPL := Lib.hid hpl
        have HFO := Lib.hid hfo
        obtain ⟨c, hc⟩ : ∃ c, cmpK p.k key = c := ⟨_, rfl⟩
        simp only [hc] at CC
        rw [hc] at HFO
        have n0 : (0 : Int) ≤ (i : Int) := by omega
        have n1 : (i : Int) < (n : Int) := by omega
        have n2 : ((i : Nat) : Int).toNat = i := by omega
        clear hpl hfo him hp9 hc HI HJ
        go_wp2_with (first | (refine wpList_load_mid rfl 41 (.tmp 43) rfl b1 _ rfl p.cells _ hg1 Tryd.underlying41 rfl (by rfl) ?_) | (refine wpList_load_midP 41 (.tmp 43) rfl b1 _ rfl p.cells _ hg1 Tryd.underlying41 rfl (by rfl) (by first | rfl | (simp [Region.wanted, yielded, *]; done)) ?_) | (go_at_call 72; refine (CC _).mono ?_; rintro e w2 ⟨rfl, hb2⟩; have hbel := hbel.trans (hb2.mono hbel.size)))
        go_returns
        exact ⟨by rw [HPL.out, HFO.out]; rfl, hbel⟩
      · have f1 : decide ((i : Int) < (n : Int)) = false := decide_eq_false (by omega)
        have f1n : decide (i < n) = false := decide_eq_false hin
        have hfo : foundL l key = false := by unfold foundL; rw [hpl, List.getElem?_eq_none (by rw [HN.out]; omega)]
        have HPL := Lib.hid hpl
        have HFO := Lib.hid hfo
        clear hpl hfo
        go_wp2
        go_returns
        exact ⟨by rw [HPL.out, HFO.out]; rfl, hbel⟩
    have d1 : decide ((i : Int) < (j : Int)) = true := decide_eq_true (by omega)
    have d1n : decide (i < j) = true := decide_eq_true hlt
    have s1 : (i : Int) + (j : Int) ≤ 9223372036854775807 := by omega
    have s0 : (0 : Int) ≤ (i : Int) + (j : Int) := by omega
    go_upto_region 5 with fail
    obtain ⟨h, hh⟩ : ∃ h : Nat, ((i : Int) + (j : Int)) / 2 = (h : Nat) := ⟨(i + j) / 2, by omega⟩
    have hih : i ≤ h := by omega
    have hhj : h < j := by omega
    simp only [hh]
    have hhl : h < l.length := by rw [HN.out]; omega
    obtain ⟨b1, o1, rfl, hb1, hg1⟩ := pr_range (hr.below hbel) hhl
    have hhm := List.getElem?_eq_getElem hhl
    obtain ⟨p, hp9⟩ : ∃ p, l[h] = p := ⟨_, rfl⟩
    rw [hp9] at hg1 hhm
    have HHM := Lib.hid hhm
    have CC := fun W : World => (show Calls Tryd.prog 72 #[.agg p.cells.toArray, .string key] W _ from clo_any p.k p.v key W)
    obtain ⟨lb, hlb⟩ : ∃ b, lessK p.k key = b := ⟨_, rfl⟩
    have hcl : decide (cmpK p.k key < 0) = lb := by rw [cmpK_less]; exact hlb
    have HLB := Lib.hid hlb
    obtain ⟨c, hc⟩ : ∃ c, cmpK p.k key = c := ⟨_, rfl⟩
    simp only [hc] at CC
    rw [hc] at hcl
    have n0 : (0 : Int) ≤ (h : Int) := by omega
    have n1 : (h : Int) < (n : Int) := by omega
    have n2 : ((h : Nat) : Int).toNat = h := by omega
    clear hh hhm hp9 hlb hc
    cases lb
    · have HJ2 : Hid (∀ (t : Nat) p, h ≤ t → l[t]? = some p → lessK p.k key = false) := Lib.hid (fun t q ht hq => by
        cases hk : lessK q.k key with
        | false => rfl
        | true =>
          exfalso
          rcases Nat.eq_or_lt_of_le ht with e | e
          · subst e
            rw [HHM.out] at hq
            obtain rfl := Option.some.inj hq
            rw [HLB.out] at hk; cases hk
          · have := lessK_trans (HSO.out h t p q e HHM.out hq) hk
            rw [HLB.out] at this; cases this)
      go_wp2_with (first | (refine wpList_load_mid rfl 41 (.tmp 27) rfl b1 _ rfl p.cells _ hg1 Tryd.underlying41 rfl (by rfl) ?_) | (go_at_call 72; refine (CC _).mono ?_; rintro e w2 ⟨rfl, hb2⟩; have hbel := hbel.trans (hb2.mono hbel.size)))
      go_roundw
      case rel => exact ⟨i, h, hih, by omega, rfl, by go_num, HI, HJ2, hbel⟩
      case measure => (simp [intOf]) <;> omega
    · have HI2 : Hid (∀ (t : Nat) p, t < h + 1 → l[t]? = some p → lessK p.k key = true) := Lib.hid (fun t q ht hq => by
        rcases Nat.eq_or_lt_of_le (Nat.le_of_lt_succ ht) with e | e
        · subst e
          rw [HHM.out] at hq
          obtain rfl := Option.some.inj hq
          exact HLB.out
        · exact lessK_trans (HSO.out t h q p e hq HHM.out) HLB.out)
      go_wp2_with (first | (refine wpList_load_mid rfl 41 (.tmp 27) rfl b1 _ rfl p.cells _ hg1 Tryd.underlying41 rfl (by rfl) ?_) | (go_at_call 72; refine (CC _).mono ?_; rintro e w2 ⟨rfl, hb2⟩; have hbel := hbel.trans (hb2.mono hbel.size)))
      go_roundw
      case rel => exact ⟨h + 1, j, by omega, hj, by go_num, rfl, HI2, HJ, hbel⟩
      case measure => (simp [intOf]) <;> omega
end Go.Proofs.YtpledhipdiephaaDoor
