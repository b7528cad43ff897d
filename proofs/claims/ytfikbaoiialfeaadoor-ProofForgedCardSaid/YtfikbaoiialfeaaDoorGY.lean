/- Pairs of a key and its value; lists of them that are good. The leaves' hashes of a list of pairs. The search for a key among pairs. Which pairs a proof shows. A good list is sorted, its pairs are short; what Make makes. What Make makes. The chapter's example of proofs. -/
import Derived.Test.YtfikbaoiialfeaaDoorGU
import Derived.Test.YtfikbaoiialfeaaDoorLess
import Derived.Test.YtfikbaoiialfeaaDoorGP
import Derived.BigRegion
import Derived.RegionTactic
import Derived.BigQuiet
import Derived.Deep.QuietTactic
import Derived.Deep.MidRow
import Derived.LoopTactic
import Derived.BigFrame
import Derived.WalkKit
import Derived.ProofKit
import Derived.Handy
import Derived.Below
import Derived.Lib.Hide
import Derived.IntWalk
import Derived.Outline
import Derived.WalkLawsBesides
import Derived.WalkSpells
import Derived.Test.YtfikbaoiialfeaaDoorOwn
import Derived.Maps.AppendAt
import Derived.OwnWalk
import Derived.Test.YtfikbaoiialfeaaDoorShelf
import Derived.Maps.OwnRows
namespace Go.Proofs.YtfikbaoiialfeaaDoor
open Go.RowKit
attribute [local go_sem] strV
set_option linter.unusedVariables false
structure Pr where
  k : ByteArray
  v : ByteArray
def Pr.cells (x : Pr) : List Value := [.string x.k, .string x.v]
theorem Pr.cells_len (x : Pr) : x.cells.length = 2 := rfl
theorem pr_one (x : Pr) : x.cells.toArray.all (·.oneCell') = true := by simp [Pr.cells, Value.oneCell']
theorem pr_range {w : World} {a : Option Addr} {xs : List Pr} (h : RowAt w a (xs.flatMap Pr.cells)) {k : Nat} (hk : k < xs.length) :
    ∃ b off, a = some ⟨b, off, none⟩ ∧ b < w.heap.size ∧ w.rangeAt b (off + k * 2) xs[k].cells := by
  obtain ⟨b, off, ha, hb, hc⟩ := h.elem Pr.cells_len hk (by decide)
  refine ⟨b, off, ha, hb, fun j v hv => ?_⟩
  have hj : j < 2 := by have := (List.getElem?_eq_some_iff.1 hv).1; rwa [Pr.cells_len] at this
  rw [Nat.add_assoc, hc j hj, hv]
theorem wpList_load_midP {P : Program} {ops : Array Oper} {rest : List Oper} {op : Oper} {a : Act} {w : World} {Q : Exit → Act → World → Prop} (ty : TypeId) (x : Operand) (ho : op.op = .load ty x)
    (b o : Nat) (hx : a.eval x = .pointer (some ⟨b, o, none⟩)) (cs : List Value) (d : TypeDesc) (hc : w.rangeAt b o cs)
    (hu : P.underlying ty = some d) (hd : d.isRow = true) (hi : (P.info? ty).map (·.size) = some cs.length) (hw : Region.wanted op (yielded ops a.tmps) = true)
    (h : wpList P ops Q rest (a.put op.dst (.agg cs.toArray)) w) : wpList P ops Q (op :: rest) a w := by
  unfold wpList
  rw [if_pos hw]
  exact .inl (wp_load_mid ty x ho b o hx cs d hc hu hd hi h)
def lessK (x y : ByteArray) : Bool := Op.bytesLess x.data.toList y.data.toList
def goodAt (l : List Pr) (i : Nat) : Bool := match l[i]? with
  | none => true
  | some p => fitsB p.k p.v && (i == 0 || match l[i - 1]? with | none => true | some q => lessK q.k p.k)
def goodL (l : List Pr) : Bool := (List.range l.length).all (goodAt l)
theorem goodL_bad {l : List Pr} {i : Nat} (hi : i < l.length) (h : goodAt l i = false) : goodL l = false := by
  unfold goodL
  rw [← Bool.not_eq_true, List.all_eq_true]
  intro h9
  have := h9 i (List.mem_range.2 hi)
  rw [h] at this
  cases this
theorem goodL_all {l : List Pr} (h : ∀ i, i < l.length → goodAt l i = true) : goodL l = true := List.all_eq_true.2 (fun i hi => h i (List.mem_range.1 hi))
set_option maxRecDepth 100000 in
set_option maxHeartbeats 6400000 in
theorem good_any (a : Option Addr) (n cap : Nat) (l : List Pr) (w : World) (hr : RowAt w a (l.flatMap Pr.cells)) (hn : l.length = n) (hcap : n ≤ cap) (hcm : cap ≤ maxLen) :
    Calls Tryd.prog 39 #[.slice a n cap] w fun e w' => e = .returned (.bool (goodL l)) ∧ Below w.heap.size w w' := by
  unfold maxLen at hcm
  obtain ⟨r, hr9⟩ : ∃ r, goodL l = r := ⟨_, rfl⟩
  rw [hr9]
  have HR := Lib.hid hr9
  have HN := Lib.hid hn
  clear hr9 hn
  go_enter Tryd.func39, Tryd.ntmps39
  go_upto_region 2 with fail
  go_loopw [7] (fun i wr => ∃ k : Nat, k ≤ n ∧ i = .int .i64 k ∧ Hid (∀ i, i < k → goodAt l i = true) ∧ Below w.heap.size w wr) (fun i _ => n - (intOf i).toNat)
  case atStart => exact ⟨0, Nat.zero_le _, rfl, Lib.hid (fun i h => by omega), Below.refl _ _⟩
  case round =>
    obtain ⟨k, hk, rfl, HA, hbel⟩ := hrel
    by_cases hlt : k < n
    rotate_left
    · have d9 : decide ((k : Int) < (n : Int)) = false := decide_eq_false (by omega)
      have d9n : decide (k < n) = false := decide_eq_false hlt
      obtain rfl : r = true := by rw [← HR.out]; exact goodL_all (fun i hi => HA.out i (by rw [HN.out] at hi; omega))
      go_wp2
      go_ret
      exact ⟨rfl, hbel⟩
    have d1 : decide ((k : Int) < (n : Int)) = true := decide_eq_true (by omega)
    have d1n : decide (k < n) = true := decide_eq_true hlt
    have hkl : k < l.length := by rw [HN.out]; exact hlt
    obtain ⟨b1, o1, rfl, hb1, hg1⟩ := pr_range (hr.below hbel) hkl
    have hkm := List.getElem?_eq_getElem hkl
    obtain ⟨p, hp9⟩ : ∃ p, l[k] = p := ⟨_, rfl⟩
    rw [hp9] at hg1 hkm
    have HKM := Lib.hid hkm
    clear hp9 hkm
    have n0 : (0 : Int) ≤ (k : Int) := by omega
    have n1 : (k : Int) < (n : Int) := by omega
    have n2 : ((k : Nat) : Int).toNat = k := by omega
    go_upto_region 4 with (first | (refine wpList_load_mid rfl 92 (.tmp 10) rfl b1 _ rfl p.cells _ hg1 Tryd.underlying92 rfl (by rfl) ?_) | (refine wpList_storeRowTo (Z := p.cells.toArray) rfl (.tmp 4) (.tmp 11) 92 rfl (by kernel_rfl) rfl (by rfl) (heap_push _ _ _) rfl (pr_one p) ?_))
    refine wp_nameE _ (fun W4 hX => ?_)
    have hb4 : Below wr.heap.size wr W4 := by rw [hX]; exact below_setRow (Below.alloc (Below.refl _ _) (Nat.le_refl _) _) (Nat.le_refl _) _
    have hx : W4.heap[wr.heap.size]? = some (.cells p.cells.toArray 92 (0, 0)) := by rw [hX]; exact setRow_heap _ _ _ _ _ _ (heap_push _ _ _)
    clear hX
    have hbel := hbel.trans (hb4.mono hbel.size)
    have hb1 := Nat.lt_of_lt_of_le hb1 hb4.size
    obtain ⟨g4, hg4⟩ : ∃ g, wr.heap.size = g := ⟨_, rfl⟩
    rw [hg4] at hx
    simp only [hg4]
    clear hg4 hb4 hg1
    have hxl := (Array.getElem?_eq_some_iff.1 hx).1
    obtain ⟨fit, hfit⟩ : ∃ b, fitsB p.k p.v = b := ⟨_, rfl⟩
    have HFIT := Lib.hid hfit
    clear hfit
    cases fit
    · have hgd : goodAt l k = false := by unfold goodAt; rw [HKM.out]; simp only []; rw [HFIT.out]; rfl
      refine wp_region_facts [Fact.eq (.pointer (some ⟨g4, 0, none⟩)), Fact.eq (.string p.k), Fact.eq (.pointer (some ⟨g4, 1, none⟩)), Fact.eq (.string p.v), Fact.eq (.bool false), Fact.eq (.bool true), Fact.eq (.bool true), Fact.any, Fact.any, Fact.eq (.tuple #[]), Fact.any, Fact.any, Fact.any, Fact.any, Fact.any, Fact.any, Fact.any, Fact.any, Fact.any, Fact.any, Fact.eq (.bool true)] (by kernel_rfl) (by kernel_rfl) (by kernel_rfl) (by kernel_rfl) (fun x => by simp only [fillFrom, Act.put, List.setIfInBounds_toArray, List.set_cons_succ, List.set_cons_zero]; rfl) ?_ ?_
      · refine ⟨?_, ?_, ?_, ?_, ?_, ?_, ?_, ?_, ?_, ?_, ?_, ?_, ?_, ?_, ?_, ?_, ?_, ?_, ?_, ?_, ?_, trivial⟩
        · intro x w' hbw hd
          clear hd
          go_wp2_with fail
          exact frPost_mk rfl (by repeat (first | assumption | exact Below.refl _ _ | refine bch ?_ (by assumption) | refine Below.alloc ?_ (by simp) _)) rfl
        · intro x w' hbw hd
          have d0 : x 0 = .pointer (some ⟨g4, 0, none⟩) := hd 0 rfl
          clear hd
          have hgc := cells_of hx hbw hxl
          have c0 : w'.cell? ⟨g4, 0, none⟩ = some (.string p.k) := cell_heap hgc 0
          have c1 : w'.cell? ⟨g4, 1, none⟩ = some (.string p.v) := cell_heap hgc 1
          go_wp2_with fail
          exact frPost_mk rfl (by repeat (first | assumption | exact Below.refl _ _ | refine bch ?_ (by assumption) | refine Below.alloc ?_ (by simp) _)) rfl
        · intro x w' hbw hd
          clear hd
          go_wp2_with fail
          exact frPost_mk rfl (by repeat (first | assumption | exact Below.refl _ _ | refine bch ?_ (by assumption) | refine Below.alloc ?_ (by simp) _)) rfl
        · intro x w' hbw hd
          have d2 : x 2 = .pointer (some ⟨g4, 1, none⟩) := hd 2 rfl
          clear hd
          have hgc := cells_of hx hbw hxl
          have c0 : w'.cell? ⟨g4, 0, none⟩ = some (.string p.k) := cell_heap hgc 0
          have c1 : w'.cell? ⟨g4, 1, none⟩ = some (.string p.v) := cell_heap hgc 1
          go_wp2_with fail
          exact frPost_mk rfl (by repeat (first | assumption | exact Below.refl _ _ | refine bch ?_ (by assumption) | refine Below.alloc ?_ (by simp) _)) rfl
        · intro x w' hbw hd
          have d1 : x 1 = .string p.k := hd 1 rfl
          have d3 : x 3 = .string p.v := hd 3 rfl
          clear hd
          have CC := fits_any p.k p.v w'
          simp only [HFIT.out] at CC
          go_wp2_with (first | (go_at_call 77; refine CC.mono ?_; rintro e wx ⟨rfl, rfl⟩))
          exact frPost_mk rfl (by repeat (first | assumption | exact Below.refl _ _ | refine bch ?_ (by assumption) | refine Below.alloc ?_ (by simp) _)) rfl
        · intro x w' hbw hd
          have d4 : x 4 = .bool false := hd 4 rfl
          clear hd
          go_wp2_with fail
          exact frPost_mk rfl (by repeat (first | assumption | exact Below.refl _ _ | refine bch ?_ (by assumption) | refine Below.alloc ?_ (by simp) _)) rfl
        · intro x w' hbw hd
          have d5 : x 5 = .bool true := hd 5 rfl
          clear hd
          go_wp2_with fail
          exact frPost_mk rfl (by repeat (first | assumption | exact Below.refl _ _ | refine bch ?_ (by assumption) | refine Below.alloc ?_ (by simp) _)) rfl
        · intro x w' hbw hd
          have d6 : x 6 = .bool true := hd 6 rfl
          clear hd
          go_wp2_with fail
          first | exact frPost_mk rfl (by repeat (first | assumption | exact Below.refl _ _ | refine bch ?_ (by assumption) | refine Below.alloc ?_ (by simp) _)) trivial | exact ⟨rfl, rfl, Below.refl _ _, trivial⟩
        · intro x w' hbw hd
          have d6 : x 6 = .bool true := hd 6 rfl
          skip
          clear hd
          go_wp2_with fail
          first | exact frPost_mk rfl (by repeat (first | assumption | exact Below.refl _ _ | refine bch ?_ (by assumption) | refine Below.alloc ?_ (by simp) _)) trivial | exact ⟨rfl, rfl, Below.refl _ _, trivial⟩
        · intro x w' hbw hd
          have d6 : x 6 = .bool true := hd 6 rfl
          skip
          clear hd
          go_wp2_with fail
          first | exact frPost_mk rfl (by repeat (first | assumption | exact Below.refl _ _ | refine bch ?_ (by assumption) | refine Below.alloc ?_ (by simp) _)) rfl | exact ⟨rfl, rfl, Below.refl _ _, rfl⟩
        · intro x w' hbw hd
          have d9 : x 9 = .tuple #[] := hd 9 rfl
          clear hd
          go_wp2_with fail
          first | exact frPost_mk rfl (by repeat (first | assumption | exact Below.refl _ _ | refine bch ?_ (by assumption) | refine Below.alloc ?_ (by simp) _)) trivial | exact ⟨rfl, rfl, Below.refl _ _, trivial⟩
        · intro x w' hbw hd
          have d9 : x 9 = .tuple #[] := hd 9 rfl
          clear hd
          go_wp2_with fail
          first | exact frPost_mk rfl (by repeat (first | assumption | exact Below.refl _ _ | refine bch ?_ (by assumption) | refine Below.alloc ?_ (by simp) _)) trivial | exact ⟨rfl, rfl, Below.refl _ _, trivial⟩
        · intro x w' hbw hd
          have d9 : x 9 = .tuple #[] := hd 9 rfl
          skip
          clear hd
          go_wp2_with fail
          first | exact frPost_mk rfl (by repeat (first | assumption | exact Below.refl _ _ | refine bch ?_ (by assumption) | refine Below.alloc ?_ (by simp) _)) trivial | exact ⟨rfl, rfl, Below.refl _ _, trivial⟩
        · intro x w' hbw hd
          have d9 : x 9 = .tuple #[] := hd 9 rfl
          skip
          skip
          clear hd
          go_wp2_with fail
          first | exact frPost_mk rfl (by repeat (first | assumption | exact Below.refl _ _ | refine bch ?_ (by assumption) | refine Below.alloc ?_ (by simp) _)) trivial | exact ⟨rfl, rfl, Below.refl _ _, trivial⟩
        · intro x w' hbw hd
          have d9 : x 9 = .tuple #[] := hd 9 rfl
          skip
          clear hd
          go_wp2_with fail
          first | exact frPost_mk rfl (by repeat (first | assumption | exact Below.refl _ _ | refine bch ?_ (by assumption) | refine Below.alloc ?_ (by simp) _)) trivial | exact ⟨rfl, rfl, Below.refl _ _, trivial⟩
        · intro x w' hbw hd
          have d9 : x 9 = .tuple #[] := hd 9 rfl
          skip
          clear hd
          go_wp2_with fail
          first | exact frPost_mk rfl (by repeat (first | assumption | exact Below.refl _ _ | refine bch ?_ (by assumption) | refine Below.alloc ?_ (by simp) _)) trivial | exact ⟨rfl, rfl, Below.refl _ _, trivial⟩
        · intro x w' hbw hd
          have d9 : x 9 = .tuple #[] := hd 9 rfl
          clear hd
          go_wp2_with fail
          first | exact frPost_mk rfl (by repeat (first | assumption | exact Below.refl _ _ | refine bch ?_ (by assumption) | refine Below.alloc ?_ (by simp) _)) trivial | exact ⟨rfl, rfl, Below.refl _ _, trivial⟩
        · intro x w' hbw hd
          have d9 : x 9 = .tuple #[] := hd 9 rfl
          skip
          clear hd
          go_wp2_with fail
          first | exact frPost_mk rfl (by repeat (first | assumption | exact Below.refl _ _ | refine bch ?_ (by assumption) | refine Below.alloc ?_ (by simp) _)) trivial | exact ⟨rfl, rfl, Below.refl _ _, trivial⟩
        · intro x w' hbw hd
          have d9 : x 9 = .tuple #[] := hd 9 rfl
          skip
          skip
          clear hd
          go_wp2_with fail
          first | exact frPost_mk rfl (by repeat (first | assumption | exact Below.refl _ _ | refine bch ?_ (by assumption) | refine Below.alloc ?_ (by simp) _)) trivial | exact ⟨rfl, rfl, Below.refl _ _, trivial⟩
        · intro x w' hbw hd
          have d6 : x 6 = .bool true := hd 6 rfl
          have d9 : x 9 = .tuple #[] := hd 9 rfl
          skip
          clear hd
          go_wp2_with fail
          first | exact frPost_mk rfl (by repeat (first | assumption | exact Below.refl _ _ | refine bch ?_ (by assumption) | refine Below.alloc ?_ (by simp) _)) trivial | exact ⟨rfl, rfl, Below.refl _ _, trivial⟩
        · intro x w' hbw hd
          have d6 : x 6 = .bool true := hd 6 rfl
          skip
          clear hd
          go_wp2_with fail
          exact frPost_mk rfl (by repeat (first | assumption | exact Below.refl _ _ | refine bch ?_ (by assumption) | refine Below.alloc ?_ (by simp) _)) rfl
      intro x wf hbw9 hd
      have d20 : x 20 = .bool true := hd 20 (by decide)
      clear hd
      simp only [Nat.zero_add, Nat.reduceAdd, d20]
      obtain rfl : r = false := by rw [← HR.out]; exact goodL_bad hkl hgd
      have hbel := hbel.trans (hbw9.mono hbel.size)
      go_wp2
      go_ret
      exact ⟨rfl, hbel⟩
    by_cases hk0 : k = 0
    · have e0 : decide ((0 : Int) < (k : Int)) = false := decide_eq_false (by omega)
      have e0n : decide (0 < k) = false := decide_eq_false (by omega)
      have HGD : Hid (goodAt l k = true) := Lib.hid (by unfold goodAt; rw [HKM.out]; simp only []; rw [HFIT.out, hk0]; rfl)
      clear hk0
      refine wp_region_facts [Fact.eq (.pointer (some ⟨g4, 0, none⟩)), Fact.eq (.string p.k), Fact.eq (.pointer (some ⟨g4, 1, none⟩)), Fact.eq (.string p.v), Fact.eq (.bool true), Fact.eq (.bool false), Fact.eq (.bool false), Fact.eq (.int .i64 (k : Int)), Fact.eq (.bool false), Fact.eq (.bool false), Fact.any, Fact.any, Fact.any, Fact.any, Fact.any, Fact.any, Fact.any, Fact.any, Fact.any, Fact.eq (.bool false), Fact.eq (.bool false)] (by kernel_rfl) (by kernel_rfl) (by kernel_rfl) (by kernel_rfl) (fun x => by simp only [fillFrom, Act.put, List.setIfInBounds_toArray, List.set_cons_succ, List.set_cons_zero]; rfl) ?_ ?_
      · refine ⟨?_, ?_, ?_, ?_, ?_, ?_, ?_, ?_, ?_, ?_, ?_, ?_, ?_, ?_, ?_, ?_, ?_, ?_, ?_, ?_, ?_, trivial⟩
        · intro x w' hbw hd
          clear hd
          go_wp2_with fail
          exact frPost_mk rfl (by repeat (first | assumption | exact Below.refl _ _ | refine bch ?_ (by assumption) | refine Below.alloc ?_ (by simp) _)) rfl
        · intro x w' hbw hd
          have d0 : x 0 = .pointer (some ⟨g4, 0, none⟩) := hd 0 rfl
          clear hd
          have hgc := cells_of hx hbw hxl
          have c0 : w'.cell? ⟨g4, 0, none⟩ = some (.string p.k) := cell_heap hgc 0
          have c1 : w'.cell? ⟨g4, 1, none⟩ = some (.string p.v) := cell_heap hgc 1
          go_wp2_with fail
          exact frPost_mk rfl (by repeat (first | assumption | exact Below.refl _ _ | refine bch ?_ (by assumption) | refine Below.alloc ?_ (by simp) _)) rfl
        · intro x w' hbw hd
          clear hd
          go_wp2_with fail
          exact frPost_mk rfl (by repeat (first | assumption | exact Below.refl _ _ | refine bch ?_ (by assumption) | refine Below.alloc ?_ (by simp) _)) rfl
        · intro x w' hbw hd
          have d2 : x 2 = .pointer (some ⟨g4, 1, none⟩) := hd 2 rfl
          clear hd
          have hgc := cells_of hx hbw hxl
          have c0 : w'.cell? ⟨g4, 0, none⟩ = some (.string p.k) := cell_heap hgc 0
          have c1 : w'.cell? ⟨g4, 1, none⟩ = some (.string p.v) := cell_heap hgc 1
          go_wp2_with fail
          exact frPost_mk rfl (by repeat (first | assumption | exact Below.refl _ _ | refine bch ?_ (by assumption) | refine Below.alloc ?_ (by simp) _)) rfl
        · intro x w' hbw hd
          have d1 : x 1 = .string p.k := hd 1 rfl
          have d3 : x 3 = .string p.v := hd 3 rfl
          clear hd
          have CC := fits_any p.k p.v w'
          simp only [HFIT.out] at CC
          go_wp2_with (first | (go_at_call 77; refine CC.mono ?_; rintro e wx ⟨rfl, rfl⟩))
          exact frPost_mk rfl (by repeat (first | assumption | exact Below.refl _ _ | refine bch ?_ (by assumption) | refine Below.alloc ?_ (by simp) _)) rfl
        · intro x w' hbw hd
          have d4 : x 4 = .bool true := hd 4 rfl
          clear hd
          go_wp2_with fail
          exact frPost_mk rfl (by repeat (first | assumption | exact Below.refl _ _ | refine bch ?_ (by assumption) | refine Below.alloc ?_ (by simp) _)) rfl
        · intro x w' hbw hd
          have d5 : x 5 = .bool false := hd 5 rfl
          clear hd
          go_wp2_with fail
          exact frPost_mk rfl (by repeat (first | assumption | exact Below.refl _ _ | refine bch ?_ (by assumption) | refine Below.alloc ?_ (by simp) _)) rfl
        · intro x w' hbw hd
          have d6 : x 6 = .bool false := hd 6 rfl
          clear hd
          go_wp2_with fail
          exact frPost_mk rfl (by repeat (first | assumption | exact Below.refl _ _ | refine bch ?_ (by assumption) | refine Below.alloc ?_ (by simp) _)) rfl
        · intro x w' hbw hd
          have d6 : x 6 = .bool false := hd 6 rfl
          have d7 : x 7 = .int .i64 (k : Int) := hd 7 rfl
          clear hd
          go_wp2_with fail
          exact frPost_mk rfl (by repeat (first | assumption | exact Below.refl _ _ | refine bch ?_ (by assumption) | refine Below.alloc ?_ (by simp) _)) rfl
        · intro x w' hbw hd
          have d6 : x 6 = .bool false := hd 6 rfl
          have d8 : x 8 = .bool false := hd 8 rfl
          clear hd
          go_wp2_with fail
          exact frPost_mk rfl (by repeat (first | assumption | exact Below.refl _ _ | refine bch ?_ (by assumption) | refine Below.alloc ?_ (by simp) _)) rfl
        · intro x w' hbw hd
          have d9 : x 9 = .bool false := hd 9 rfl
          clear hd
          go_wp2_with fail
          first | exact frPost_mk rfl (by repeat (first | assumption | exact Below.refl _ _ | refine bch ?_ (by assumption) | refine Below.alloc ?_ (by simp) _)) trivial | exact ⟨rfl, rfl, Below.refl _ _, trivial⟩
        · intro x w' hbw hd
          have d9 : x 9 = .bool false := hd 9 rfl
          clear hd
          go_wp2_with fail
          first | exact frPost_mk rfl (by repeat (first | assumption | exact Below.refl _ _ | refine bch ?_ (by assumption) | refine Below.alloc ?_ (by simp) _)) trivial | exact ⟨rfl, rfl, Below.refl _ _, trivial⟩
        · intro x w' hbw hd
          have d9 : x 9 = .bool false := hd 9 rfl
          skip
          clear hd
          go_wp2_with fail
          first | exact frPost_mk rfl (by repeat (first | assumption | exact Below.refl _ _ | refine bch ?_ (by assumption) | refine Below.alloc ?_ (by simp) _)) trivial | exact ⟨rfl, rfl, Below.refl _ _, trivial⟩
        · intro x w' hbw hd
          have d9 : x 9 = .bool false := hd 9 rfl
          skip
          skip
          clear hd
          go_wp2_with fail
          first | exact frPost_mk rfl (by repeat (first | assumption | exact Below.refl _ _ | refine bch ?_ (by assumption) | refine Below.alloc ?_ (by simp) _)) trivial | exact ⟨rfl, rfl, Below.refl _ _, trivial⟩
        · intro x w' hbw hd
          have d9 : x 9 = .bool false := hd 9 rfl
          skip
          clear hd
          go_wp2_with fail
          first | exact frPost_mk rfl (by repeat (first | assumption | exact Below.refl _ _ | refine bch ?_ (by assumption) | refine Below.alloc ?_ (by simp) _)) trivial | exact ⟨rfl, rfl, Below.refl _ _, trivial⟩
        · intro x w' hbw hd
          have d9 : x 9 = .bool false := hd 9 rfl
          skip
          clear hd
          go_wp2_with fail
          first | exact frPost_mk rfl (by repeat (first | assumption | exact Below.refl _ _ | refine bch ?_ (by assumption) | refine Below.alloc ?_ (by simp) _)) trivial | exact ⟨rfl, rfl, Below.refl _ _, trivial⟩
        · intro x w' hbw hd
          have d9 : x 9 = .bool false := hd 9 rfl
          clear hd
          go_wp2_with fail
          first | exact frPost_mk rfl (by repeat (first | assumption | exact Below.refl _ _ | refine bch ?_ (by assumption) | refine Below.alloc ?_ (by simp) _)) trivial | exact ⟨rfl, rfl, Below.refl _ _, trivial⟩
        · intro x w' hbw hd
          have d9 : x 9 = .bool false := hd 9 rfl
          skip
          clear hd
          go_wp2_with fail
          first | exact frPost_mk rfl (by repeat (first | assumption | exact Below.refl _ _ | refine bch ?_ (by assumption) | refine Below.alloc ?_ (by simp) _)) trivial | exact ⟨rfl, rfl, Below.refl _ _, trivial⟩
        · intro x w' hbw hd
          have d9 : x 9 = .bool false := hd 9 rfl
          skip
          skip
          clear hd
          go_wp2_with fail
          first | exact frPost_mk rfl (by repeat (first | assumption | exact Below.refl _ _ | refine bch ?_ (by assumption) | refine Below.alloc ?_ (by simp) _)) trivial | exact ⟨rfl, rfl, Below.refl _ _, trivial⟩
        · intro x w' hbw hd
          have d6 : x 6 = .bool false := hd 6 rfl
          have d9 : x 9 = .bool false := hd 9 rfl
          skip
          clear hd
          go_wp2_with fail
          exact frPost_mk rfl (by repeat (first | assumption | exact Below.refl _ _ | refine bch ?_ (by assumption) | refine Below.alloc ?_ (by simp) _)) rfl
        · intro x w' hbw hd
          have d6 : x 6 = .bool false := hd 6 rfl
          have d19 : x 19 = .bool false := hd 19 rfl
          clear hd
          go_wp2_with fail
          exact frPost_mk rfl (by repeat (first | assumption | exact Below.refl _ _ | refine bch ?_ (by assumption) | refine Below.alloc ?_ (by simp) _)) rfl
      intro x wf hbw9 hd
      have d20 : x 20 = .bool false := hd 20 (by decide)
      clear hd
      simp only [Nat.zero_add, Nat.reduceAdd, d20]
      have hbel := hbel.trans (hbw9.mono hbel.size)
      go_wp2
      go_roundw
      case rel => exact ⟨k + 1, by omega, by go_num, Lib.hid (fun i hi => by
          rcases Nat.lt_or_ge i k with h9 | h9
          · exact HA.out i h9
          · obtain rfl : i = k := by omega
            exact HGD.out), hbel⟩
      case measure => (simp [intOf]) <;> omega
    have e0 : decide ((0 : Int) < (k : Int)) = true := decide_eq_true (by omega)
    have e0n : decide (0 < k) = true := decide_eq_true (by omega)
    obtain ⟨k9, hk9⟩ : ∃ q, k = q + 1 := ⟨k - 1, by omega⟩
    have hkl9 : k9 < l.length := by omega
    obtain ⟨b2, o2, he2, _, hg2⟩ := pr_range (hr.below hbel) hkl9
    simp only [Option.some.injEq, Addr.mk.injEq, and_true] at he2
    obtain ⟨rfl, rfl⟩ := he2
    have hkm9 := List.getElem?_eq_getElem hkl9
    obtain ⟨q, hq9⟩ : ∃ q, l[k9] = q := ⟨_, rfl⟩
    rw [hq9] at hg2 hkm9
    have hq0 : W4.cell? ⟨b1, o1 + k9 * 2, none⟩ = some (.string q.k) := hg2 0 _ rfl
    have HK9 := Lib.hid hk9
    obtain ⟨ls, hls⟩ : ∃ b, lessK q.k p.k = b := ⟨_, rfl⟩
    have HLESS := Lib.hid hls
    have hga : goodAt l k = ls := by
      unfold goodAt
      rw [HKM.out]
      simp only []
      rw [HFIT.out, beq_eq_false_iff_ne.2 hk0, hk9, Nat.add_sub_cancel, hkm9]
      simp only []
      rw [hls]
      rfl
    have HGA := Lib.hid hga
    clear hk9 hls hga hkm9 hq9 hg2 hk0
    cases ls
    · have hgd := HGA.out
      clear HGA
      refine wp_region_facts [Fact.eq (.pointer (some ⟨g4, 0, none⟩)), Fact.eq (.string p.k), Fact.eq (.pointer (some ⟨g4, 1, none⟩)), Fact.eq (.string p.v), Fact.eq (.bool true), Fact.eq (.bool false), Fact.eq (.bool false), Fact.eq (.int .i64 (k : Int)), Fact.eq (.bool true), Fact.eq (.bool true), Fact.eq (.slice (some ⟨b1, o1, none⟩) n cap), Fact.eq (.int .i64 (k : Int)), Fact.eq (.int .i64 (k9 : Int)), Fact.eq (.pointer (some ⟨b1, o1 + k9 * 2, none⟩)), Fact.eq (.pointer (some ⟨b1, o1 + k9 * 2, none⟩)), Fact.eq (.string q.k), Fact.eq (.pointer (some ⟨g4, 0, none⟩)), Fact.eq (.string p.k), Fact.eq (.bool true), Fact.eq (.bool true), Fact.eq (.bool true)] (by kernel_rfl) (by kernel_rfl) (by kernel_rfl) (by kernel_rfl) (fun x => by simp only [fillFrom, Act.put, List.setIfInBounds_toArray, List.set_cons_succ, List.set_cons_zero]; rfl) ?_ ?_
      · refine ⟨?_, ?_, ?_, ?_, ?_, ?_, ?_, ?_, ?_, ?_, ?_, ?_, ?_, ?_, ?_, ?_, ?_, ?_, ?_, ?_, ?_, trivial⟩
        · intro x w' hbw hd
          clear hd
          go_wp2_with fail
          exact frPost_mk rfl (by repeat (first | assumption | exact Below.refl _ _ | refine bch ?_ (by assumption) | refine Below.alloc ?_ (by simp) _)) rfl
        · intro x w' hbw hd
          have d0 : x 0 = .pointer (some ⟨g4, 0, none⟩) := hd 0 rfl
          clear hd
          have hgc := cells_of hx hbw hxl
          have c0 : w'.cell? ⟨g4, 0, none⟩ = some (.string p.k) := cell_heap hgc 0
          have c1 : w'.cell? ⟨g4, 1, none⟩ = some (.string p.v) := cell_heap hgc 1
          go_wp2_with fail
          exact frPost_mk rfl (by repeat (first | assumption | exact Below.refl _ _ | refine bch ?_ (by assumption) | refine Below.alloc ?_ (by simp) _)) rfl
        · intro x w' hbw hd
          clear hd
          go_wp2_with fail
          exact frPost_mk rfl (by repeat (first | assumption | exact Below.refl _ _ | refine bch ?_ (by assumption) | refine Below.alloc ?_ (by simp) _)) rfl
        · intro x w' hbw hd
          have d2 : x 2 = .pointer (some ⟨g4, 1, none⟩) := hd 2 rfl
          clear hd
          have hgc := cells_of hx hbw hxl
          have c0 : w'.cell? ⟨g4, 0, none⟩ = some (.string p.k) := cell_heap hgc 0
          have c1 : w'.cell? ⟨g4, 1, none⟩ = some (.string p.v) := cell_heap hgc 1
          go_wp2_with fail
          exact frPost_mk rfl (by repeat (first | assumption | exact Below.refl _ _ | refine bch ?_ (by assumption) | refine Below.alloc ?_ (by simp) _)) rfl
        · intro x w' hbw hd
          have d1 : x 1 = .string p.k := hd 1 rfl
          have d3 : x 3 = .string p.v := hd 3 rfl
          clear hd
          have CC := fits_any p.k p.v w'
          simp only [HFIT.out] at CC
          go_wp2_with (first | (go_at_call 77; refine CC.mono ?_; rintro e wx ⟨rfl, rfl⟩))
          exact frPost_mk rfl (by repeat (first | assumption | exact Below.refl _ _ | refine bch ?_ (by assumption) | refine Below.alloc ?_ (by simp) _)) rfl
        · intro x w' hbw hd
          have d4 : x 4 = .bool true := hd 4 rfl
          clear hd
          go_wp2_with fail
          exact frPost_mk rfl (by repeat (first | assumption | exact Below.refl _ _ | refine bch ?_ (by assumption) | refine Below.alloc ?_ (by simp) _)) rfl
        · intro x w' hbw hd
          have d5 : x 5 = .bool false := hd 5 rfl
          clear hd
          go_wp2_with fail
          exact frPost_mk rfl (by repeat (first | assumption | exact Below.refl _ _ | refine bch ?_ (by assumption) | refine Below.alloc ?_ (by simp) _)) rfl
        · intro x w' hbw hd
          have d6 : x 6 = .bool false := hd 6 rfl
          clear hd
          go_wp2_with fail
          exact frPost_mk rfl (by repeat (first | assumption | exact Below.refl _ _ | refine bch ?_ (by assumption) | refine Below.alloc ?_ (by simp) _)) rfl
        · intro x w' hbw hd
          have d6 : x 6 = .bool false := hd 6 rfl
          have d7 : x 7 = .int .i64 (k : Int) := hd 7 rfl
          clear hd
          go_wp2_with fail
          exact frPost_mk rfl (by repeat (first | assumption | exact Below.refl _ _ | refine bch ?_ (by assumption) | refine Below.alloc ?_ (by simp) _)) rfl
        · intro x w' hbw hd
          have d6 : x 6 = .bool false := hd 6 rfl
          have d8 : x 8 = .bool true := hd 8 rfl
          clear hd
          go_wp2_with fail
          exact frPost_mk rfl (by repeat (first | assumption | exact Below.refl _ _ | refine bch ?_ (by assumption) | refine Below.alloc ?_ (by simp) _)) rfl
        · intro x w' hbw hd
          have d9 : x 9 = .bool true := hd 9 rfl
          clear hd
          go_wp2_with fail
          exact frPost_mk rfl (by repeat (first | assumption | exact Below.refl _ _ | refine bch ?_ (by assumption) | refine Below.alloc ?_ (by simp) _)) rfl
        · intro x w' hbw hd
          have d9 : x 9 = .bool true := hd 9 rfl
          clear hd
          go_wp2_with fail
          exact frPost_mk rfl (by repeat (first | assumption | exact Below.refl _ _ | refine bch ?_ (by assumption) | refine Below.alloc ?_ (by simp) _)) rfl
        · intro x w' hbw hd
          have d9 : x 9 = .bool true := hd 9 rfl
          have d11 : x 11 = .int .i64 (k : Int) := hd 11 rfl
          clear hd
          have hsub : (k : Int) - 1 = ((k9 : Nat) : Int) := by have := HK9.out; omega
          have hs1 : (0 : Int) ≤ (k : Int) - 1 := by have := HK9.out; omega
          have hs2 : (k : Int) - 1 ≤ 9223372036854775807 := by omega
          go_wp2_with fail
          exact frPost_mk rfl (by repeat (first | assumption | exact Below.refl _ _ | refine bch ?_ (by assumption) | refine Below.alloc ?_ (by simp) _)) (by show Value.int .i64 _ = Value.int .i64 _; first | rfl | rw [hsub])
        · intro x w' hbw hd
          have d9 : x 9 = .bool true := hd 9 rfl
          have d10 : x 10 = .slice (some ⟨b1, o1, none⟩) n cap := hd 10 rfl
          have d12 : x 12 = .int .i64 (k9 : Int) := hd 12 rfl
          clear hd
          have n0 : (0 : Int) ≤ (k9 : Int) := by omega
          have n1 : (k9 : Int) < (n : Int) := by have := HK9.out; omega
          have n2 : ((k9 : Nat) : Int).toNat = k9 := by omega
          go_wp2_with fail
          exact frPost_mk rfl (by repeat (first | assumption | exact Below.refl _ _ | refine bch ?_ (by assumption) | refine Below.alloc ?_ (by simp) _)) (by first | rfl | (show Value.pointer _ = Value.pointer _; simp))
        · intro x w' hbw hd
          have d9 : x 9 = .bool true := hd 9 rfl
          have d13 : x 13 = .pointer (some ⟨b1, o1 + k9 * 2, none⟩) := hd 13 rfl
          clear hd
          go_wp2_with fail
          exact frPost_mk rfl (by repeat (first | assumption | exact Below.refl _ _ | refine bch ?_ (by assumption) | refine Below.alloc ?_ (by simp) _)) rfl
        · intro x w' hbw hd
          have d9 : x 9 = .bool true := hd 9 rfl
          have d14 : x 14 = .pointer (some ⟨b1, o1 + k9 * 2, none⟩) := hd 14 rfl
          clear hd
          have cq : w'.cell? ⟨b1, o1 + k9 * 2, none⟩ = some (.string q.k) := by rw [hbw.cell (p := ⟨b1, o1 + k9 * 2, none⟩) hb1]; exact hq0
          go_wp2_with fail
          exact frPost_mk rfl (by repeat (first | assumption | exact Below.refl _ _ | refine bch ?_ (by assumption) | refine Below.alloc ?_ (by simp) _)) rfl
        · intro x w' hbw hd
          have d9 : x 9 = .bool true := hd 9 rfl
          clear hd
          go_wp2_with fail
          exact frPost_mk rfl (by repeat (first | assumption | exact Below.refl _ _ | refine bch ?_ (by assumption) | refine Below.alloc ?_ (by simp) _)) rfl
        · intro x w' hbw hd
          have d9 : x 9 = .bool true := hd 9 rfl
          have d16 : x 16 = .pointer (some ⟨g4, 0, none⟩) := hd 16 rfl
          clear hd
          have hgc := cells_of hx hbw hxl
          have c0 : w'.cell? ⟨g4, 0, none⟩ = some (.string p.k) := cell_heap hgc 0
          have c1 : w'.cell? ⟨g4, 1, none⟩ = some (.string p.v) := cell_heap hgc 1
          go_wp2_with fail
          exact frPost_mk rfl (by repeat (first | assumption | exact Below.refl _ _ | refine bch ?_ (by assumption) | refine Below.alloc ?_ (by simp) _)) rfl
        · intro x w' hbw hd
          have d9 : x 9 = .bool true := hd 9 rfl
          have d15 : x 15 = .string q.k := hd 15 rfl
          have d17 : x 17 = .string p.k := hd 17 rfl
          clear hd
          have hle : Op.bytesLess q.k.toList p.k.toList = false := by rw [ByteArray.toList_eq, ByteArray.toList_eq]; exact HLESS.out
          go_wp2_with fail
          exact frPost_mk rfl (by repeat (first | assumption | exact Below.refl _ _ | refine bch ?_ (by assumption) | refine Below.alloc ?_ (by simp) _)) rfl
        · intro x w' hbw hd
          have d6 : x 6 = .bool false := hd 6 rfl
          have d9 : x 9 = .bool true := hd 9 rfl
          have d18 : x 18 = .bool true := hd 18 rfl
          clear hd
          go_wp2_with fail
          exact frPost_mk rfl (by repeat (first | assumption | exact Below.refl _ _ | refine bch ?_ (by assumption) | refine Below.alloc ?_ (by simp) _)) rfl
        · intro x w' hbw hd
          have d6 : x 6 = .bool false := hd 6 rfl
          have d19 : x 19 = .bool true := hd 19 rfl
          clear hd
          go_wp2_with fail
          exact frPost_mk rfl (by repeat (first | assumption | exact Below.refl _ _ | refine bch ?_ (by assumption) | refine Below.alloc ?_ (by simp) _)) rfl
      intro x wf hbw9 hd
      have d20 : x 20 = .bool true := hd 20 (by decide)
      clear hd
      simp only [Nat.zero_add, Nat.reduceAdd, d20]
      obtain rfl : r = false := by rw [← HR.out]; exact goodL_bad hkl hgd
      have hbel := hbel.trans (hbw9.mono hbel.size)
      go_wp2
      go_ret
      exact ⟨rfl, hbel⟩
    · have HGD : Hid (goodAt l k = true) := HGA
      clear HGA
      refine wp_region_facts [Fact.eq (.pointer (some ⟨g4, 0, none⟩)), Fact.eq (.string p.k), Fact.eq (.pointer (some ⟨g4, 1, none⟩)), Fact.eq (.string p.v), Fact.eq (.bool true), Fact.eq (.bool false), Fact.eq (.bool false), Fact.eq (.int .i64 (k : Int)), Fact.eq (.bool true), Fact.eq (.bool true), Fact.eq (.slice (some ⟨b1, o1, none⟩) n cap), Fact.eq (.int .i64 (k : Int)), Fact.eq (.int .i64 (k9 : Int)), Fact.eq (.pointer (some ⟨b1, o1 + k9 * 2, none⟩)), Fact.eq (.pointer (some ⟨b1, o1 + k9 * 2, none⟩)), Fact.eq (.string q.k), Fact.eq (.pointer (some ⟨g4, 0, none⟩)), Fact.eq (.string p.k), Fact.eq (.bool false), Fact.eq (.bool false), Fact.eq (.bool false)] (by kernel_rfl) (by kernel_rfl) (by kernel_rfl) (by kernel_rfl) (fun x => by simp only [fillFrom, Act.put, List.setIfInBounds_toArray, List.set_cons_succ, List.set_cons_zero]; rfl) ?_ ?_
      · refine ⟨?_, ?_, ?_, ?_, ?_, ?_, ?_, ?_, ?_, ?_, ?_, ?_, ?_, ?_, ?_, ?_, ?_, ?_, ?_, ?_, ?_, trivial⟩
        · intro x w' hbw hd
          clear hd
          go_wp2_with fail
          exact frPost_mk rfl (by repeat (first | assumption | exact Below.refl _ _ | refine bch ?_ (by assumption) | refine Below.alloc ?_ (by simp) _)) rfl
        · intro x w' hbw hd
          have d0 : x 0 = .pointer (some ⟨g4, 0, none⟩) := hd 0 rfl
          clear hd
          have hgc := cells_of hx hbw hxl
          have c0 : w'.cell? ⟨g4, 0, none⟩ = some (.string p.k) := cell_heap hgc 0
          have c1 : w'.cell? ⟨g4, 1, none⟩ = some (.string p.v) := cell_heap hgc 1
          go_wp2_with fail
          exact frPost_mk rfl (by repeat (first | assumption | exact Below.refl _ _ | refine bch ?_ (by assumption) | refine Below.alloc ?_ (by simp) _)) rfl
        · intro x w' hbw hd
          clear hd
          go_wp2_with fail
          exact frPost_mk rfl (by repeat (first | assumption | exact Below.refl _ _ | refine bch ?_ (by assumption) | refine Below.alloc ?_ (by simp) _)) rfl
        · intro x w' hbw hd
          have d2 : x 2 = .pointer (some ⟨g4, 1, none⟩) := hd 2 rfl
          clear hd
          have hgc := cells_of hx hbw hxl
          have c0 : w'.cell? ⟨g4, 0, none⟩ = some (.string p.k) := cell_heap hgc 0
          have c1 : w'.cell? ⟨g4, 1, none⟩ = some (.string p.v) := cell_heap hgc 1
          go_wp2_with fail
          exact frPost_mk rfl (by repeat (first | assumption | exact Below.refl _ _ | refine bch ?_ (by assumption) | refine Below.alloc ?_ (by simp) _)) rfl
        · intro x w' hbw hd
          have d1 : x 1 = .string p.k := hd 1 rfl
          have d3 : x 3 = .string p.v := hd 3 rfl
          clear hd
          have CC := fits_any p.k p.v w'
          simp only [HFIT.out] at CC
          go_wp2_with (first | (go_at_call 77; refine CC.mono ?_; rintro e wx ⟨rfl, rfl⟩))
          exact frPost_mk rfl (by repeat (first | assumption | exact Below.refl _ _ | refine bch ?_ (by assumption) | refine Below.alloc ?_ (by simp) _)) rfl
        · intro x w' hbw hd
          have d4 : x 4 = .bool true := hd 4 rfl
          clear hd
          go_wp2_with fail
          exact frPost_mk rfl (by repeat (first | assumption | exact Below.refl _ _ | refine bch ?_ (by assumption) | refine Below.alloc ?_ (by simp) _)) rfl
        · intro x w' hbw hd
          have d5 : x 5 = .bool false := hd 5 rfl
          clear hd
          go_wp2_with fail
          exact frPost_mk rfl (by repeat (first | assumption | exact Below.refl _ _ | refine bch ?_ (by assumption) | refine Below.alloc ?_ (by simp) _)) rfl
        · intro x w' hbw hd
          have d6 : x 6 = .bool false := hd 6 rfl
          clear hd
          go_wp2_with fail
          exact frPost_mk rfl (by repeat (first | assumption | exact Below.refl _ _ | refine bch ?_ (by assumption) | refine Below.alloc ?_ (by simp) _)) rfl
        · intro x w' hbw hd
          have d6 : x 6 = .bool false := hd 6 rfl
          have d7 : x 7 = .int .i64 (k : Int) := hd 7 rfl
          clear hd
          go_wp2_with fail
          exact frPost_mk rfl (by repeat (first | assumption | exact Below.refl _ _ | refine bch ?_ (by assumption) | refine Below.alloc ?_ (by simp) _)) rfl
        · intro x w' hbw hd
          have d6 : x 6 = .bool false := hd 6 rfl
          have d8 : x 8 = .bool true := hd 8 rfl
          clear hd
          go_wp2_with fail
          exact frPost_mk rfl (by repeat (first | assumption | exact Below.refl _ _ | refine bch ?_ (by assumption) | refine Below.alloc ?_ (by simp) _)) rfl
        · intro x w' hbw hd
          have d9 : x 9 = .bool true := hd 9 rfl
          clear hd
          go_wp2_with fail
          exact frPost_mk rfl (by repeat (first | assumption | exact Below.refl _ _ | refine bch ?_ (by assumption) | refine Below.alloc ?_ (by simp) _)) rfl
        · intro x w' hbw hd
          have d9 : x 9 = .bool true := hd 9 rfl
          clear hd
          go_wp2_with fail
          exact frPost_mk rfl (by repeat (first | assumption | exact Below.refl _ _ | refine bch ?_ (by assumption) | refine Below.alloc ?_ (by simp) _)) rfl
        · intro x w' hbw hd
          have d9 : x 9 = .bool true := hd 9 rfl
          have d11 : x 11 = .int .i64 (k : Int) := hd 11 rfl
          clear hd
          have hsub : (k : Int) - 1 = ((k9 : Nat) : Int) := by have := HK9.out; omega
          have hs1 : (0 : Int) ≤ (k : Int) - 1 := by have := HK9.out; omega
          have hs2 : (k : Int) - 1 ≤ 9223372036854775807 := by omega
          go_wp2_with fail
          exact frPost_mk rfl (by repeat (first | assumption | exact Below.refl _ _ | refine bch ?_ (by assumption) | refine Below.alloc ?_ (by simp) _)) (by show Value.int .i64 _ = Value.int .i64 _; first | rfl | rw [hsub])
        · intro x w' hbw hd
          have d9 : x 9 = .bool true := hd 9 rfl
          have d10 : x 10 = .slice (some ⟨b1, o1, none⟩) n cap := hd 10 rfl
          have d12 : x 12 = .int .i64 (k9 : Int) := hd 12 rfl
          clear hd
          have n0 : (0 : Int) ≤ (k9 : Int) := by omega
          have n1 : (k9 : Int) < (n : Int) := by have := HK9.out; omega
          have n2 : ((k9 : Nat) : Int).toNat = k9 := by omega
          go_wp2_with fail
          exact frPost_mk rfl (by repeat (first | assumption | exact Below.refl _ _ | refine bch ?_ (by assumption) | refine Below.alloc ?_ (by simp) _)) (by first | rfl | (show Value.pointer _ = Value.pointer _; simp))
        · intro x w' hbw hd
          have d9 : x 9 = .bool true := hd 9 rfl
          have d13 : x 13 = .pointer (some ⟨b1, o1 + k9 * 2, none⟩) := hd 13 rfl
          clear hd
          go_wp2_with fail
          exact frPost_mk rfl (by repeat (first | assumption | exact Below.refl _ _ | refine bch ?_ (by assumption) | refine Below.alloc ?_ (by simp) _)) rfl
        · intro x w' hbw hd
          have d9 : x 9 = .bool true := hd 9 rfl
          have d14 : x 14 = .pointer (some ⟨b1, o1 + k9 * 2, none⟩) := hd 14 rfl
          clear hd
          have cq : w'.cell? ⟨b1, o1 + k9 * 2, none⟩ = some (.string q.k) := by rw [hbw.cell (p := ⟨b1, o1 + k9 * 2, none⟩) hb1]; exact hq0
          go_wp2_with fail
          exact frPost_mk rfl (by repeat (first | assumption | exact Below.refl _ _ | refine bch ?_ (by assumption) | refine Below.alloc ?_ (by simp) _)) rfl
        · intro x w' hbw hd
          have d9 : x 9 = .bool true := hd 9 rfl
          clear hd
          go_wp2_with fail
          exact frPost_mk rfl (by repeat (first | assumption | exact Below.refl _ _ | refine bch ?_ (by assumption) | refine Below.alloc ?_ (by simp) _)) rfl
        · intro x w' hbw hd
          have d9 : x 9 = .bool true := hd 9 rfl
          have d16 : x 16 = .pointer (some ⟨g4, 0, none⟩) := hd 16 rfl
          clear hd
          have hgc := cells_of hx hbw hxl
          have c0 : w'.cell? ⟨g4, 0, none⟩ = some (.string p.k) := cell_heap hgc 0
          have c1 : w'.cell? ⟨g4, 1, none⟩ = some (.string p.v) := cell_heap hgc 1
          go_wp2_with fail
          exact frPost_mk rfl (by repeat (first | assumption | exact Below.refl _ _ | refine bch ?_ (by assumption) | refine Below.alloc ?_ (by simp) _)) rfl
        · intro x w' hbw hd
          have d9 : x 9 = .bool true := hd 9 rfl
          have d15 : x 15 = .string q.k := hd 15 rfl
          have d17 : x 17 = .string p.k := hd 17 rfl
          clear hd
          have hle : Op.bytesLess q.k.toList p.k.toList = true := by rw [ByteArray.toList_eq, ByteArray.toList_eq]; exact HLESS.out
          go_wp2_with fail
          exact frPost_mk rfl (by repeat (first | assumption | exact Below.refl _ _ | refine bch ?_ (by assumption) | refine Below.alloc ?_ (by simp) _)) rfl
        · intro x w' hbw hd
          have d6 : x 6 = .bool false := hd 6 rfl
          have d9 : x 9 = .bool true := hd 9 rfl
          have d18 : x 18 = .bool false := hd 18 rfl
          clear hd
          go_wp2_with fail
          exact frPost_mk rfl (by repeat (first | assumption | exact Below.refl _ _ | refine bch ?_ (by assumption) | refine Below.alloc ?_ (by simp) _)) rfl
        · intro x w' hbw hd
          have d6 : x 6 = .bool false := hd 6 rfl
          have d19 : x 19 = .bool false := hd 19 rfl
          clear hd
          go_wp2_with fail
          exact frPost_mk rfl (by repeat (first | assumption | exact Below.refl _ _ | refine bch ?_ (by assumption) | refine Below.alloc ?_ (by simp) _)) rfl
      intro x wf hbw9 hd
      have d20 : x 20 = .bool false := hd 20 (by decide)
      clear hd
      simp only [Nat.zero_add, Nat.reduceAdd, d20]
      have hbel := hbel.trans (hbw9.mono hbel.size)
      go_wp2
      go_roundw
      case rel => exact ⟨k + 1, by omega, by go_num, Lib.hid (fun i hi => by
          rcases Nat.lt_or_ge i k with h9 | h9
          · exact HA.out i h9
          · obtain rfl : i = k := by omega
            exact HGD.out), hbel⟩
      case measure => (simp [intOf]) <;> omega
end Go.Proofs.YtfikbaoiialfeaaDoor
namespace Go.Proofs.YtfikbaoiialfeaaDoor
open Go.RowKit
attribute [local go_sem] strV
set_option linter.unusedVariables false
def leafH (p : Pr) : H32 := ⟨leafF p.k p.v, leafF_len _ _⟩
theorem below_own {w w' : World} {base : Nat} {row : Option Nat} (hg : w.grownBy w' row) (hr : ∀ k, row = some k → base ≤ k) (hb : base ≤ w.heap.size) : Below base w w' :=
  (Below.refl base w).grown hg hb hr
set_option maxRecDepth 100000 in
set_option maxHeartbeats 6400000 in
theorem leaves_any (a : Option Addr) (n cap : Nat) (l : List Pr) (w : World) (hW : SW w) (hr : RowAt w a (l.flatMap Pr.cells)) (hn : l.length = n) (hn6 : n ≤ 1000000) (hs : ∀ p ∈ l, p.k.size ≤ 1000000 ∧ p.v.size ≤ 1000000) :
    Calls Tryd.prog 74 #[.slice a n cap] w fun e w' => ∃ v, e = .returned v ∧ w'.ownsRow w.heap.size 25 32 v n ((l.map leafH).flatMap H32.cells) ∧ Below w.heap.size w w' := by
  have HN := Lib.hid hn
  have HS := Lib.hid hs
  obtain ⟨i0, hi, hz0, hz1, hz2⟩ := info_parts Tryd.infoH
  clear hn hs
  go_enter Tryd.func74, Tryd.ntmps74
  go_upto_region 3 with (at_make; refine wpList_make_own _ rfl _ _ 22 rfl w.heap.size 25 i0 (.agg #[.int .u8 0, .int .u8 0, .int .u8 0, .int .u8 0, .int .u8 0, .int .u8 0, .int .u8 0, .int .u8 0, .int .u8 0, .int .u8 0, .int .u8 0, .int .u8 0, .int .u8 0, .int .u8 0, .int .u8 0, .int .u8 0, .int .u8 0, .int .u8 0, .int .u8 0, .int .u8 0, .int .u8 0, .int .u8 0, .int .u8 0, .int .u8 0, .int .u8 0, .int .u8 0, .int .u8 0, .int .u8 0, .int .u8 0, .int .u8 0, .int .u8 0, .int .u8 0]) 32 Tryd.underlying22 hi hz0 hz1 .i64 .i64 _ n rfl rfl rfl (by rw [hz2]; omega) (by unfold maxLen; omega) (Nat.le_refl _) ?_; intro w1 hown hgr)
  have hbel := below_own hgr (fun k h => by cases h) (Nat.le_refl w.heap.size)
  go_loopw [3, 11] (fun v i wr => ∃ k : Nat, k ≤ n ∧ i = .int .i64 k ∧ wr.ownsRow w.heap.size 25 32 v k (((l.take k).map leafH).flatMap H32.cells) ∧ Below w.heap.size w wr) (fun _ i _ => n - (intOf i).toNat)
  case atStart => exact ⟨0, Nat.zero_le _, rfl, hown, hbel⟩
  case round =>
    clear hown hgr hbel
    rename_i sv _ _
    obtain ⟨k, hk, rfl, hown, hbel⟩ := hrel
    by_cases hlt : k < n
    rotate_left
    · have d9 : decide ((k : Int) < (n : Int)) = false := decide_eq_false (by omega)
      have d9n : decide (k < n) = false := decide_eq_false hlt
      rw [List.take_of_length_le (by rw [HN.out]; omega)] at hown
      obtain rfl : k = n := by omega
      obtain ⟨a9, c9, rfl, _⟩ := own_sliceH hown
      go_wp2
      go_ret
      exact ⟨_, rfl, hown, hbel⟩
    have d1 : decide ((k : Int) < (n : Int)) = true := decide_eq_true (by omega)
    have d1n : decide (k < n) = true := decide_eq_true hlt
    have hkl : k < l.length := by rw [HN.out]; exact hlt
    obtain ⟨b1, o1, rfl, hb1, hg1⟩ := pr_range (hr.below hbel) hkl
    have hsz := HS.out _ (List.getElem_mem hkl)
    have htk : (((l.take (k + 1)).map leafH).flatMap H32.cells) = ((l.take k).map leafH).flatMap H32.cells ++ (leafH l[k]).cells := by
      rw [List.take_succ_eq_append_getElem hkl, List.map_append, List.flatMap_append]
      simp
    obtain ⟨p, hp9⟩ : ∃ p, l[k] = p := ⟨_, rfl⟩
    rw [hp9] at hg1 hsz htk
    have HTK := Lib.hid htk
    have CLf := fun W (hb : Below w.heap.size w W) => leaf_any p.k p.v W (hW.below hb) hsz.1 hsz.2
    obtain ⟨q, hq9⟩ : ∃ q : H32, leafH p = q := ⟨_, rfl⟩
    have hqe : leafF p.k p.v = q.1 := by rw [← hq9]; rfl
    simp only [hqe] at CLf
    rw [hq9] at HTK
    have hqs : (hrow q.1).size = 32 := by rw [hrow_size]; exact q.2
    clear hp9 htk hq9 hqe hsz
    obtain ⟨a2, c2, rfl, _⟩ := own_sliceH hown
    have n0 : (0 : Int) ≤ (k : Int) := by omega
    have n1 : (k : Int) < (n : Int) := by omega
    have n2 : ((k : Nat) : Int).toNat = k := by omega
    go_upto_region 5 with (first | (refine wpList_load_mid rfl 92 (.tmp 13) rfl b1 _ rfl p.cells _ hg1 Tryd.underlying92 rfl (by rfl) ?_) | (refine wpList_storeRowTo (Z := p.cells.toArray) rfl (.tmp 5) (.tmp 14) 92 rfl (by kernel_rfl) rfl (by rfl) (heap_push _ _ _) rfl (pr_one p) ?_))
    refine wp_nameE _ (fun W4 hX => ?_)
    have hb4 : Below wr.heap.size wr W4 := by rw [hX]; exact below_setRow (Below.alloc (Below.refl _ _) (Nat.le_refl _) _) (Nat.le_refl _) _
    have hx : W4.heap[wr.heap.size]? = some (.cells p.cells.toArray 92 (0, 0)) := by rw [hX]; exact setRow_heap _ _ _ _ _ _ (heap_push _ _ _)
    clear hX hg1
    have hown := own_keptH hown hb4
    have hbel := hbel.trans (hb4.mono hbel.size)
    have c0 : W4.cell? ⟨wr.heap.size, 0, none⟩ = some (.string p.k) := cell_heap hx 0
    have c1 : W4.cell? ⟨wr.heap.size, 1, none⟩ = some (.string p.v) := cell_heap hx 1
    go_upto_region 6 with (first | (go_at_call 12; refine (CLf _ hbel).mono ?_; rintro e w5 ⟨rfl, hb5⟩; have hown := own_keptH hown hb5; have hbel := hbel.trans (hb5.mono hbel.size)) | (refine wpList_one rfl (.tmp 20) 22 25 rfl (by rfl) (one_hash _ hqs _) ?_; have hb6 : Below w5.heap.size w5 (w5.alloc (.cells (hrow q.1) 25)) := Below.alloc (Below.refl _ _) (Nat.le_refl _) _; have hown := own_keptH hown hb6; have hbel := hbel.trans (hb6.mono hbel.size); have hnews : ∀ j u, q.cells[j]? = some u → (w5.alloc (.cells (hrow q.1) 25)).cell? ((⟨w5.heap.size, 0, none⟩ : Addr).add j) = some u := fun j u hj => (by rw [Addr.add_mid, Nat.zero_add, cell_heap (heap_push _ _ _), ← hj, show hrow q.1 = q.cells.toArray from rfl, List.getElem?_toArray])) | (at_builtin; refine wpList_append_own_at _ rfl (.tmp 15) (.tmp 21) 22 rfl w.heap.size 25 i0 (.agg #[.int .u8 0, .int .u8 0, .int .u8 0, .int .u8 0, .int .u8 0, .int .u8 0, .int .u8 0, .int .u8 0, .int .u8 0, .int .u8 0, .int .u8 0, .int .u8 0, .int .u8 0, .int .u8 0, .int .u8 0, .int .u8 0, .int .u8 0, .int .u8 0, .int .u8 0, .int .u8 0, .int .u8 0, .int .u8 0, .int .u8 0, .int .u8 0, .int .u8 0, .int .u8 0, .int .u8 0, .int .u8 0, .int .u8 0, .int .u8 0, .int .u8 0, .int .u8 0]) 32 32 Tryd.underlying22 hi hz0 hz1 hz2 rfl (by decide) _ _ _ rfl hown ⟨w5.heap.size, 0, none⟩ 1 1 q.cells rfl (by rw [H32.cells_len]) hnews (Lib.byteCells_one q.1) (by unfold maxLen; omega) (by omega) hbel.size ?_; intro v9 w9 hown9 hgr9 _ _))
    have hb9 := below_own hgr9 (fun j hj => ((hown.lt j hj).1)) hbel.size
    go_wp2
    go_roundw
    case rel => exact ⟨k + 1, by omega, by go_num, by rw [HTK.out]; exact hown9, hbel.trans hb9⟩
    case measure => (simp [intOf]) <;> omega
end Go.Proofs.YtfikbaoiialfeaaDoor
namespace Go.Proofs.YtfikbaoiialfeaaDoor
open Go.RowKit
attribute [local go_sem] strV
set_option linter.unusedVariables false
theorem cmp_zero : ∀ (l m : List UInt8), (Lib.compareBytes l m == 0) = decide (l = m)
  | [], [] => rfl
  | [], _ :: _ => rfl
  | _ :: _, [] => rfl
  | a :: l, b :: m => by
    unfold Lib.compareBytes
    have ih := cmp_zero l m
    by_cases h1 : a < b
    · have hne : a ≠ b := fun e => by rw [e] at h1; exact UInt8.lt_irrefl _ h1
      simp [h1, hne]
    · by_cases h2 : b < a
      · have hne : a ≠ b := fun e => by rw [e] at h2; exact UInt8.lt_irrefl _ h2
        simp [h1, h2, hne]
      · have he : a = b := UInt8.le_antisymm (UInt8.not_lt.1 h2) (UInt8.not_lt.1 h1)
        subst he
        simp [h1, ih]
def cmpK (x y : ByteArray) : Int := Lib.compareBytes x.data.toList y.data.toList
set_option maxRecDepth 100000 in
set_option maxHeartbeats 1600000 in
theorem clo_any (k v key : ByteArray) (w : World) : Calls Tryd.prog 106 #[.agg #[.string k, .string v], .string key] w fun e w' => e = .returned (.int .i64 (cmpK k key)) ∧ Below w.heap.size w w' := by
  have CC := fun W => Tryd.strings_Compare k key W
  have hq := heap_push w #[.string k, .string v] 92
  have hb0 : Below w.heap.size w (w.alloc (.cells #[.string k, .string v] 92)) := Below.alloc (Below.refl _ _) (Nat.le_refl _) _
  go_enter Tryd.func106, Tryd.ntmps106
  go_upto_region 1 with fail
  refine wp_nameE _ (fun W1 hX => ?_)
  have hx : W1.heap[w.heap.size]? = some (.cells #[.string k, .string v] 92 (0, 0)) := by rw [hX]; exact hq
  have hbel : Below w.heap.size w W1 := by rw [hX]; exact hb0
  clear hX hq hb0
  have c0 := cell_heap hx 0
  go_wp2_with (go_at_call 107; refine (CC _).mono ?_; rintro e w2 ⟨rfl, rfl⟩)
  go_ret
  exact ⟨rfl, hbel⟩
theorem lessK_trans {x y z : ByteArray} (h1 : lessK x y = true) (h2 : lessK y z = true) : lessK x z = true := less_trans _ _ _ h1 h2
theorem cmpK_less (x y : ByteArray) : decide (cmpK x y < 0) = lessK x y := cmp_less _ _
theorem cmpK_eq (x y : ByteArray) : (cmpK x y == 0) = decide (x = y) := by
  unfold cmpK
  rw [cmp_zero]
  by_cases h : x = y
  · rw [h]; simp
  · rw [decide_eq_false h, decide_eq_false (fun e => h (by apply ByteArray.ext; apply Array.ext'; exact e))]
def placeL (l : List Pr) (key : ByteArray) : Nat := l.findIdx (fun p => !lessK p.k key)
def foundL (l : List Pr) (key : ByteArray) : Bool := match l[placeL l key]? with | some p => decide (p.k = key) | none => false
def sortedL (l : List Pr) : Prop := ∀ (i j : Nat) (p q : Pr), i < j → l[i]? = some p → l[j]? = some q → lessK p.k q.k = true
theorem placeL_at {l : List Pr} {key : ByteArray} {i : Nat} (hi : i ≤ l.length) (h1 : ∀ (t : Nat) p, t < i → l[t]? = some p → lessK p.k key = true) (h2 : ∀ (t : Nat) p, i ≤ t → l[t]? = some p → lessK p.k key = false) : placeL l key = i := by
  unfold placeL
  rcases Nat.lt_or_ge i l.length with h | h
  · rw [List.findIdx_eq h]
    refine ⟨by rw [h2 i l[i] (Nat.le_refl _) (List.getElem?_eq_getElem h)]; rfl, fun j hj => ?_⟩
    rw [h1 j _ hj (List.getElem?_eq_getElem (by omega))]
    rfl
  · obtain rfl : i = l.length := by omega
    rw [List.findIdx_eq_length]
    intro p hp
    obtain ⟨t, ht, rfl⟩ := List.getElem_of_mem hp
    rw [h1 t _ ht (List.getElem?_eq_getElem ht)]
    rfl
set_option maxRecDepth 100000 in
set_option maxHeartbeats 6400000 in
theorem search_any (a : Option Addr) (n cap : Nat) (l : List Pr) (key : ByteArray) (w : World) (hr : RowAt w a (l.flatMap Pr.cells)) (hn : l.length = n) (hcap : n ≤ cap) (hcm : cap ≤ maxLen) (hn6 : n ≤ 1000000) (hso : sortedL l) :
    Calls Tryd.prog 105 #[.slice a n cap, .string key, .func (.func 106) #[] #[]] w fun e w' => e = .returned (.tuple #[.int .i64 (placeL l key : Nat), .bool (foundL l key)]) ∧ Below w.heap.size w w' := by
  unfold maxLen at hcm
  have HN := Lib.hid hn
  have HSO := Lib.hid hso
  clear hn hso
  go_enter Tryd.func105, Tryd.ntmps105
  go_upto_region 3 with fail
  go_loopw [9, 10] (fun vi vj wr => ∃ i j : Nat, i ≤ j ∧ j ≤ n ∧ vi = .int .i64 i ∧ vj = .int .i64 j ∧ Hid (∀ (t : Nat) p, t < i → l[t]? = some p → lessK p.k key = true) ∧ Hid (∀ (t : Nat) p, j ≤ t → l[t]? = some p → lessK p.k key = false) ∧ Below w.heap.size w wr) (fun vi vj _ => (intOf vj).toNat - (intOf vi).toNat)
  case atStart => exact ⟨0, n, Nat.zero_le _, Nat.le_refl _, rfl, rfl, Lib.hid (fun t p h => by omega), Lib.hid (fun t p h h2 => by have := (List.getElem?_eq_some_iff.1 h2).1; rw [HN.out] at this; omega), Below.refl _ _⟩
  case round =>
    obtain ⟨i, j, hij, hj, rfl, rfl, HI, HJ, hbel⟩ := hrel
    by_cases hlt : i < j
    rotate_left
    · have d9 : decide ((i : Int) < (j : Int)) = false := decide_eq_false (by omega)
      have d9n : decide (i < j) = false := decide_eq_false hlt
      obtain rfl : i = j := by omega
      have hpl : placeL l key = i := placeL_at (by rw [HN.out]; exact hj) HI.out HJ.out
      by_cases hin : i < n
      · have f1 : decide ((i : Int) < (n : Int)) = true := decide_eq_true (by omega)
        have f1n : decide (i < n) = true := decide_eq_true hin
        have hil : i < l.length := by rw [HN.out]; exact hin
        obtain ⟨b1, o1, rfl, hb1, hg1⟩ := pr_range (hr.below hbel) hil
        have him := List.getElem?_eq_getElem hil
        obtain ⟨p, hp9⟩ : ∃ p, l[i] = p := ⟨_, rfl⟩
        rw [hp9] at hg1 him
        have hfo : foundL l key = (cmpK p.k key == 0) := by unfold foundL; rw [hpl, him, cmpK_eq]
        have CC := fun W : World => (show Calls Tryd.prog 106 #[.agg p.cells.toArray, .string key] W _ from clo_any p.k p.v key W)
        have HPL := Lib.hid hpl
        have HFO := Lib.hid hfo
        obtain ⟨c, hc⟩ : ∃ c, cmpK p.k key = c := ⟨_, rfl⟩
        simp only [hc] at CC
        rw [hc] at HFO
        have n0 : (0 : Int) ≤ (i : Int) := by omega
        have n1 : (i : Int) < (n : Int) := by omega
        have n2 : ((i : Nat) : Int).toNat = i := by omega
        clear hpl hfo him hp9 hc HI HJ
        go_wp2_with (first | (refine wpList_load_mid rfl 92 (.tmp 43) rfl b1 _ rfl p.cells _ hg1 Tryd.underlying92 rfl (by rfl) ?_) | (refine wpList_load_midP 92 (.tmp 43) rfl b1 _ rfl p.cells _ hg1 Tryd.underlying92 rfl (by rfl) (by first | rfl | (simp [Region.wanted, yielded, *]; done)) ?_) | (go_at_call 106; refine (CC _).mono ?_; rintro e w2 ⟨rfl, hb2⟩; have hbel := hbel.trans (hb2.mono hbel.size)))
        go_returns
        exact ⟨by rw [HPL.out, HFO.out]; rfl, hbel⟩
      · have f1 : decide ((i : Int) < (n : Int)) = false := decide_eq_false (by omega)
        have f1n : decide (i < n) = false := decide_eq_false hin
        have hfo : foundL l key = false := by unfold foundL; rw [hpl, List.getElem?_eq_none (by rw [HN.out]; omega)]
        have HPL := Lib.hid hpl
        have HFO := Lib.hid hfo
        clear hpl hfo
        go_wp2
        go_returns
        exact ⟨by rw [HPL.out, HFO.out]; rfl, hbel⟩
    have d1 : decide ((i : Int) < (j : Int)) = true := decide_eq_true (by omega)
    have d1n : decide (i < j) = true := decide_eq_true hlt
    have s1 : (i : Int) + (j : Int) ≤ 9223372036854775807 := by omega
    have s0 : (0 : Int) ≤ (i : Int) + (j : Int) := by omega
    go_upto_region 5 with fail
    obtain ⟨h, hh⟩ : ∃ h : Nat, ((i : Int) + (j : Int)) / 2 = (h : Nat) := ⟨(i + j) / 2, by omega⟩
    have hih : i ≤ h := by omega
    have hhj : h < j := by omega
    simp only [hh]
    have hhl : h < l.length := by rw [HN.out]; omega
    obtain ⟨b1, o1, rfl, hb1, hg1⟩ := pr_range (hr.below hbel) hhl
    have hhm := List.getElem?_eq_getElem hhl
    obtain ⟨p, hp9⟩ : ∃ p, l[h] = p := ⟨_, rfl⟩
    rw [hp9] at hg1 hhm
    have HHM := Lib.hid hhm
    have CC := fun W : World => (show Calls Tryd.prog 106 #[.agg p.cells.toArray, .string key] W _ from clo_any p.k p.v key W)
    obtain ⟨lb, hlb⟩ : ∃ b, lessK p.k key = b := ⟨_, rfl⟩
    have hcl : decide (cmpK p.k key < 0) = lb := by rw [cmpK_less]; exact hlb
    have HLB := Lib.hid hlb
    obtain ⟨c, hc⟩ : ∃ c, cmpK p.k key = c := ⟨_, rfl⟩
    simp only [hc] at CC
    rw [hc] at hcl
    have n0 : (0 : Int) ≤ (h : Int) := by omega
    have n1 : (h : Int) < (n : Int) := by omega
    have n2 : ((h : Nat) : Int).toNat = h := by omega
    clear hh hhm hp9 hlb hc
    cases lb
    · have HJ2 : Hid (∀ (t : Nat) p, h ≤ t → l[t]? = some p → lessK p.k key = false) := Lib.hid (fun t q ht hq => by
        cases hk : lessK q.k key with
        | false => rfl
        | true =>
          exfalso
          rcases Nat.eq_or_lt_of_le ht with e | e
          · subst e
            rw [HHM.out] at hq
            obtain rfl := Option.some.inj hq
            rw [HLB.out] at hk; cases hk
          · have := lessK_trans (HSO.out h t p q e HHM.out hq) hk
            rw [HLB.out] at this; cases this)
      go_wp2_with (first | (refine wpList_load_mid rfl 92 (.tmp 27) rfl b1 _ rfl p.cells _ hg1 Tryd.underlying92 rfl (by rfl) ?_) | (go_at_call 106; refine (CC _).mono ?_; rintro e w2 ⟨rfl, hb2⟩; have hbel := hbel.trans (hb2.mono hbel.size)))
      go_roundw
      case rel => exact ⟨i, h, hih, by omega, rfl, by go_num, HI, HJ2, hbel⟩
      case measure => (simp [intOf]) <;> omega
    · have HI2 : Hid (∀ (t : Nat) p, t < h + 1 → l[t]? = some p → lessK p.k key = true) := Lib.hid (fun t q ht hq => by
        rcases Nat.eq_or_lt_of_le (Nat.le_of_lt_succ ht) with e | e
        · subst e
          rw [HHM.out] at hq
          obtain rfl := Option.some.inj hq
          exact HLB.out
        · exact lessK_trans (HSO.out t h q p e hq HHM.out) HLB.out)
      go_wp2_with (first | (refine wpList_load_mid rfl 92 (.tmp 27) rfl b1 _ rfl p.cells _ hg1 Tryd.underlying92 rfl (by rfl) ?_) | (go_at_call 106; refine (CC _).mono ?_; rintro e w2 ⟨rfl, hb2⟩; have hbel := hbel.trans (hb2.mono hbel.size)))
      go_roundw
      case rel => exact ⟨h + 1, j, by omega, hj, by go_num, rfl, HI2, HJ, hbel⟩
      case measure => (simp [intOf]) <;> omega
end Go.Proofs.YtfikbaoiialfeaaDoor
namespace Go.Proofs.YtfikbaoiialfeaaDoor
open Go.RowKit
attribute [local go_sem] strV
set_option linter.unusedVariables false
theorem Tryd.infoIn : (Tryd.prog.info? 3).map (fun i => (i.zero, i.size, i.bytes)) = some (some (.int .i64 0), 1, 8) := by kernel_rfl
def witL (n pl : Nat) (f : Bool) : List Nat := if f = true then [pl] else (if 0 < pl then [pl - 1] else []) ++ (if pl < n then [pl] else [])
theorem row_newW (w : World) (cur : Array Value) (t : TypeId) : RowAt (w.alloc (.cells cur t)) (some ⟨w.heap.size, 0, none⟩) cur.toList :=
  .inr ⟨_, 0, rfl, by simp, fun j hj => by
    rw [Nat.zero_add, cell_heap (show (w.heap.push _)[w.heap.size]? = _ by rw [Array.getElem?_push_size]) j]
    simp⟩
def WitPost (w : World) (L : List Nat) (e : Ending) (w' : World) : Prop := ∃ v cp, e = .returned (.slice v L.length cp) ∧ RowAt w' v (L.map fun i => Value.int .i64 (i : Nat)) ∧ (∀ b off sp, v = some ⟨b, off, sp⟩ → w.heap.size ≤ b) ∧ Below w.heap.size w w'
theorem grown_low {w w' : World} {base : Nat} {row : Option Nat} (hg : w.grownBy w' row) (hr : ∀ k, row = some k → base ≤ k) (hb : base ≤ w.heap.size) : Below base w w' := (Below.refl base w).grown hg hb hr
set_option maxRecDepth 100000 in
set_option maxHeartbeats 6400000 in
theorem wit_any (a : Option Addr) (n cap : Nat) (l : List Pr) (key : ByteArray) (w : World) (hr : RowAt w a (l.flatMap Pr.cells)) (hn : l.length = n) (hcap : n ≤ cap) (hcm : cap ≤ maxLen) (hn6 : n ≤ 1000000) (hso : sortedL l) :
    Calls Tryd.prog 75 #[.slice a n cap, .string key] w (WitPost w (witL n (placeL l key) (foundL l key))) := by
  have CB := search_any a n cap l key w hr hn hcap hcm hn6 hso
  have hpn : placeL l key ≤ n := by rw [← hn]; exact List.findIdx_le_length
  obtain ⟨i0, hi, hz0, hz1, hz2⟩ := info_parts Tryd.infoIn
  obtain ⟨pl, hpl⟩ : ∃ q, placeL l key = q := ⟨_, rfl⟩
  obtain ⟨f, hf⟩ : ∃ q, foundL l key = q := ⟨_, rfl⟩
  rw [hpl] at hpn
  simp only [hpl, hf] at CB ⊢
  clear hpl hf hr hn hso
  unfold WitPost
  go_enter Tryd.func75, Tryd.ntmps75
  go_upto_region 2 with (go_at_call 105; refine CB.mono ?_; rintro e w2 ⟨rfl, hb2⟩)
  cases f
  case true =>
    go_wp2
    go_ret
    exact ⟨_, _, rfl, row_newW _ _ _, (fun b off sp e => by cases e; exact hb2.size), hb2.trans (Below.alloc (Below.refl _ _) hb2.size _)⟩
  have hb3 : ∀ (c : Array Value) (t : TypeId), Below w.heap.size w (w2.alloc (.cells c t)) := fun c t => hb2.trans (Below.alloc (Below.refl _ _) hb2.size _)
  by_cases h0 : 0 < pl
  · have d0 : decide ((0 : Int) < (pl : Int)) = true := decide_eq_true (by omega)
    have d0n : decide (0 < pl) = true := decide_eq_true h0
    obtain ⟨p9, hp9⟩ : ∃ q, pl = q + 1 := ⟨pl - 1, by omega⟩
    have hsub : (pl : Int) - 1 = ((p9 : Nat) : Int) := by omega
    have HP9 := Lib.hid hp9
    clear hp9
    have hnil := World.ownsRow_nil (w2.alloc (.cells #[.int .i64 (p9 : Int)] 3)) w.heap.size 3 1
    go_upto_region 7 with (at_builtin; refine wpList_append_own_at _ rfl (.tmp 19) (.tmp 22) 98 rfl w.heap.size 3 i0 (.int .i64 0) 1 8 Tryd.underlying98 hi hz0 hz1 hz2 rfl (by decide) _ _ _ rfl hnil ⟨w2.heap.size, 0, none⟩ 1 1 [.int .i64 ((p9 : Int))] rfl rfl (cell_one_new _ _ _) (fun u hu => by rw [List.mem_singleton.1 hu]; rfl) (by unfold maxLen; omega) (by omega) (hb3 _ _).size ?_; intro v5 w5 hown5 hgr5 _ _)
    have hb5 : Below w.heap.size w w5 := (hb3 #[.int .i64 (p9 : Int)] 3).trans (grown_low hgr5 (fun k h => by cases h) (hb3 _ _).size)
    clear hgr5 hnil hb2 hb3
    by_cases h1 : pl < n
    · have d1 : decide ((pl : Int) < (n : Int)) = true := decide_eq_true (by omega)
      have d1n : decide (pl < n) = true := decide_eq_true h1
      have hb6 : Below w5.heap.size w5 (w5.alloc (.cells #[.int .i64 (pl : Int)] 3)) := Below.alloc (Below.refl _ _) (Nat.le_refl _) _
      have hown6 := own_keptH hown5 hb6
      have hbs := Nat.le_trans hb5.size hb6.size
      go_upto_region 9 with (at_builtin; refine wpList_append_own_at _ rfl (.tmp 28) (.tmp 30) 98 rfl w.heap.size 3 i0 (.int .i64 0) 1 8 Tryd.underlying98 hi hz0 hz1 hz2 rfl (by decide) _ _ _ rfl hown6 ⟨w5.heap.size, 0, none⟩ 1 1 [.int .i64 ((pl : Int))] rfl rfl (cell_one_new _ _ _) (fun u hu => by rw [List.mem_singleton.1 hu]; rfl) (by unfold maxLen; omega) (by omega) hbs ?_; intro v7 w7 hown7 hgr7 _ _)
      have hb7 : Below w.heap.size w w7 := (hb5.trans (hb6.mono hb5.size)).trans (grown_low hgr7 (fun k h => (hown6.lt k h).1) hbs)
      obtain ⟨a7, c7, rfl, hr7, _, _⟩ := own_sliceH hown7
      go_wp2
      go_ret
      refine ⟨a7, c7, ?_, ?_, (fun b off sp e => (hown7.lt b (by rw [e]; rfl)).1), hb7⟩
      · rw [show (witL n pl false).length = 2 by unfold witL; rw [if_neg (by decide), if_pos h0, if_pos h1]; rfl]; rfl
      · rw [show witL n pl false = [p9, pl] by unfold witL; rw [if_neg (by decide), if_pos h0, if_pos h1, HP9.out]; rfl]; exact hr7
    · have d1 : decide ((pl : Int) < (n : Int)) = false := decide_eq_false (by omega)
      have d1n : decide (pl < n) = false := decide_eq_false h1
      obtain ⟨a5, c5, rfl, hr5, _, _⟩ := own_sliceH hown5
      go_wp2
      go_ret
      refine ⟨a5, c5, ?_, ?_, (fun b off sp e => (hown5.lt b (by rw [e]; rfl)).1), hb5⟩
      · rw [show (witL n pl false).length = 1 by unfold witL; rw [if_neg (by decide), if_pos h0, if_neg h1]; rfl]; rfl
      · rw [show witL n pl false = [p9] by unfold witL; rw [if_neg (by decide), if_pos h0, if_neg h1, HP9.out]; rfl]; exact hr5
  · have d0 : decide ((0 : Int) < (pl : Int)) = false := decide_eq_false (by omega)
    have d0n : decide (0 < pl) = false := decide_eq_false h0
    by_cases h1 : pl < n
    · have d1 : decide ((pl : Int) < (n : Int)) = true := decide_eq_true (by omega)
      have d1n : decide (pl < n) = true := decide_eq_true h1
      have hnil := World.ownsRow_nil (w2.alloc (.cells #[.int .i64 (pl : Int)] 3)) w.heap.size 3 1
      go_upto_region 9 with (at_builtin; refine wpList_append_own_at _ rfl (.tmp 28) (.tmp 30) 98 rfl w.heap.size 3 i0 (.int .i64 0) 1 8 Tryd.underlying98 hi hz0 hz1 hz2 rfl (by decide) _ _ _ rfl hnil ⟨w2.heap.size, 0, none⟩ 1 1 [.int .i64 ((pl : Int))] rfl rfl (cell_one_new _ _ _) (fun u hu => by rw [List.mem_singleton.1 hu]; rfl) (by unfold maxLen; omega) (by omega) (hb3 _ _).size ?_; intro v7 w7 hown7 hgr7 _ _)
      have hb7 : Below w.heap.size w w7 := (hb3 #[.int .i64 (pl : Int)] 3).trans (grown_low hgr7 (fun k h => by cases h) (hb3 _ _).size)
      obtain ⟨a7, c7, rfl, hr7, _, _⟩ := own_sliceH hown7
      go_wp2
      go_ret
      refine ⟨a7, c7, ?_, ?_, (fun b off sp e => (hown7.lt b (by rw [e]; rfl)).1), hb7⟩
      · rw [show (witL n pl false).length = 1 by unfold witL; rw [if_neg (by decide), if_neg h0, if_pos h1]; rfl]; rfl
      · rw [show witL n pl false = [pl] by unfold witL; rw [if_neg (by decide), if_neg h0, if_pos h1]; rfl]; exact hr7
    · have d1 : decide ((pl : Int) < (n : Int)) = false := decide_eq_false (by omega)
      have d1n : decide (pl < n) = false := decide_eq_false h1
      go_wp2
      go_ret
      refine ⟨none, 0, ?_, .inl ?_, (fun b off sp e => by cases e), hb2⟩
      · rw [show witL n pl false = [] by unfold witL; rw [if_neg (by decide), if_neg h0, if_neg h1]; rfl]; rfl
      · rw [show witL n pl false = [] by unfold witL; rw [if_neg (by decide), if_neg h0, if_neg h1]; rfl]; rfl
end Go.Proofs.YtfikbaoiialfeaaDoor
namespace Go.Proofs.YtfikbaoiialfeaaDoor
open Go.RowKit
set_option linter.unusedVariables false
theorem goodL_at {l : List Pr} (h : goodL l = true) {i : Nat} (hi : i < l.length) : goodAt l i = true := List.all_eq_true.1 h i (List.mem_range.2 hi)
theorem goodL_next {l : List Pr} (h : goodL l = true) {i : Nat} {p q : Pr} (hp : l[i]? = some p) (hq : l[i + 1]? = some q) : lessK p.k q.k = true := by
  have hl := (List.getElem?_eq_some_iff.1 hq).1
  have h1 := goodL_at h hl
  unfold goodAt at h1
  rw [hq] at h1
  simp only [] at h1
  rw [Bool.and_eq_true] at h1
  have h2 := h1.2
  rw [beq_eq_false_iff_ne.2 (by omega : i + 1 ≠ 0), Nat.add_sub_cancel, hp] at h2
  simpa using h2
theorem goodL_sorted {l : List Pr} (h : goodL l = true) : sortedL l := by
  have key : ∀ (d i : Nat) (p q : Pr), l[i]? = some p → l[i + 1 + d]? = some q → lessK p.k q.k = true := by
    intro d
    induction d with
    | zero => exact fun i p q hp hq => goodL_next h hp hq
    | succ d ih =>
      intro i p q hp hq
      have hl : i + 1 + d < l.length := by have := (List.getElem?_eq_some_iff.1 hq).1; omega
      exact lessK_trans (ih i p _ hp (List.getElem?_eq_getElem hl)) (goodL_next h (List.getElem?_eq_getElem hl) hq)
  intro i j p q hij hp hq
  exact key (j - (i + 1)) i p q hp (by rw [show i + 1 + (j - (i + 1)) = j by omega]; exact hq)
theorem goodL_fits {l : List Pr} (h : goodL l = true) {p : Pr} (hp : p ∈ l) : (0 < p.k.size ∧ p.k.size ≤ 160) ∧ (0 < p.v.size ∧ p.v.size ≤ 64) := by
  obtain ⟨i, hi, rfl⟩ := List.getElem_of_mem hp
  have h1 := goodL_at h hi
  unfold goodAt at h1
  rw [List.getElem?_eq_getElem hi] at h1
  simp only [] at h1
  rw [Bool.and_eq_true] at h1
  have h2 := h1.1
  unfold fitsB at h2
  simp only [Bool.and_eq_true, decide_eq_true_eq] at h2
  omega
def mkD (l : List Pr) (i : Nat) : LeafD := match l[i]? with | some p => ⟨p.k, p.v, i, wayH (l.map leafH) i⟩ | none => ⟨⟨#[]⟩, ⟨#[]⟩, 0, []⟩
def makeC (l : List Pr) : Int := if goodL l = true then (l.length : Nat) else 0
def makeD (l : List Pr) (key : ByteArray) : List LeafD := if goodL l = true then (witL l.length (placeL l key) (foundL l key)).map (mkD l) else []
end Go.Proofs.YtfikbaoiialfeaaDoor
namespace Go.Proofs.YtfikbaoiialfeaaDoor
open Go.RowKit
attribute [local go_sem] strV
set_option linter.unusedVariables false
theorem pf_oneM (ct : Int) (a : Option Addr) (n c : Nat) : (#[.int .i64 ct, .slice a n c] : Array Value).all (·.oneCell') = true := by simp [Value.oneCell']
theorem RowAt.kept5 {b : Nat} {w w' : World} {a : Option Addr} {vs : List Value} (h : RowAt w a vs) (hk : Kept b w w') (ha : ∀ b' off sp, a = some ⟨b', off, sp⟩ → b' ≠ b) : RowAt w' a vs := by
  rcases h with h | ⟨b', off, ha', hlt, hc⟩
  · exact .inl h
  · exact .inr ⟨b', off, ha', Nat.lt_of_lt_of_le hlt hk.size, fun j hj => (hk.cell (p := ⟨b', off + j, none⟩) hlt (ha _ _ _ ha')).trans (hc j hj)⟩
theorem row_nat {w : World} {a : Option Addr} {zs : List Nat} (h : RowAt w a (zs.map fun i => Value.int .i64 (i : Nat))) {k : Nat} (hk : k < zs.length) :
    ∃ b off, a = some ⟨b, off, none⟩ ∧ b < w.heap.size ∧ w.cell? ⟨b, off + k, none⟩ = some (.int .i64 (zs[k] : Nat)) := by
  rcases h with h | ⟨b, off, ha, hlt, hc⟩
  · have := congrArg List.length h; rw [List.length_map] at this; simp only [List.length_nil] at this; omega
  · refine ⟨b, off, ha, hlt, ?_⟩
    rw [hc k (by simpa using hk)]; simp [hk]
theorem kept_belowM {B g : Nat} {w wr w' : World} (h : Below B w wr) (hk : Kept g wr w') (hB : B ≤ g) (hs : B ≤ wr.heap.size) : Below B w w' :=
  ⟨hk.os.trans h.os, hk.tape.trans h.tape, hk.output.trans h.output, Nat.le_trans h.size hk.size, fun j hj => (hk.block j (Nat.lt_of_lt_of_le hj hs) (by omega)).trans (h.block j hj)⟩
theorem witL_lt {l : List Pr} {key : ByteArray} {i : Nat} (h : i ∈ witL l.length (placeL l key) (foundL l key)) : i < l.length := by
  have hp : placeL l key ≤ l.length := List.findIdx_le_length
  unfold witL at h
  split at h
  · rename_i hf
    rw [List.mem_singleton] at h
    subst h
    unfold foundL at hf
    rcases Nat.lt_or_ge (placeL l key) l.length with h1 | h1
    · exact h1
    · rw [List.getElem?_eq_none h1] at hf; cases hf
  · rw [List.mem_append] at h
    rcases h with h | h
    · split at h
      · rw [List.mem_singleton] at h; omega
      · cases h
    · split at h
      · rw [List.mem_singleton] at h; omega
      · cases h
def MakePost (w : World) (l : List Pr) (key : ByteArray) (e : Ending) (w' : World) : Prop :=
  ∃ (a : Option Addr) (k cap : Nat) (xs : List LeafV), e = .returned (.agg #[.int .i64 (makeC l), .slice a k cap]) ∧ LvsAt w' a xs ∧ xs.length = k ∧ k ≤ cap ∧ cap ≤ maxLen ∧ xs.map LeafV.d = makeD l key ∧ Below w.heap.size w w'
set_option maxRecDepth 100000 in
set_option maxHeartbeats 12800000 in
theorem make_any (a : Option Addr) (n cap : Nat) (l : List Pr) (key : ByteArray) (w : World) (hW : SW w) (hr : RowAt w a (l.flatMap Pr.cells)) (hn : l.length = n) (hcap : n ≤ cap) (hcm : cap ≤ maxLen) (hn6 : n ≤ 1000000) :
    Calls Tryd.prog 32 #[.slice a n cap, .string key] w (MakePost w l key) := by
  have CG := fun W (hb : Below w.heap.size w W) => good_any a n cap l W (hr.below hb) hn hcap hcm
  obtain ⟨gd, hgd⟩ : ∃ b, goodL l = b := ⟨_, rfl⟩
  simp only [hgd] at CG
  have HGD := Lib.hid hgd
  clear hgd
  have hq := heap_push w #[.int .i64 0, .slice none 0 0] 46
  have hb0 : Below w.heap.size w (w.alloc (.cells #[.int .i64 0, .slice none 0 0] 46)) := Below.alloc (Below.refl _ _) (Nat.le_refl _) _
  unfold MakePost
  go_enter Tryd.func32, Tryd.ntmps32
  go_upto_region 1 with fail
  refine wp_nameE _ (fun W1 hX => ?_)
  have y4 : W1.heap[w.heap.size]? = some (.cells #[.int .i64 0, .slice none 0 0] 46 (0, 0)) := by rw [hX]; exact hq
  have hbel : Below w.heap.size w W1 := by rw [hX]; exact hb0
  clear hX hq hb0
  have hy4 := (Array.getElem?_eq_some_iff.1 y4).1
  cases gd
  · go_wp2_with (first | (go_at_call 39; refine (CG _ hbel).mono ?_; rintro e w2 ⟨rfl, hb⟩; have y4 := cells_of y4 hb hy4; have hy4 := Nat.lt_of_lt_of_le hy4 hb.size; have hbel := hbel.trans (hb.mono hbel.size); clear hb) | (refine wpList_storeRowTo (Z := #[.int .i64 0, .slice none 0 0]) rfl (.tmp 4) (.tmp 12) 46 rfl (by kernel_rfl) rfl (by rfl) y4 rfl (pf_oneM _ _ _ _) ?_))
    have hrd := run_loadVar_mid (P := Tryd.prog) _ w.heap.size 0 46 (#[.int .i64 0, .slice none 0 0] : Array Value).toList _ (rangeAt_row5 (setRow_heap _ _ _ _ _ _ y4)) Tryd.underlying46 rfl (by kernel_rfl)
    refine bodyPost_ret (v := .agg #[.int .i64 0, .slice none 0 0]) ?_ rfl ?_
    · simp [results, Tryd.results32, asAddr]
      exact hrd
    exact ⟨none, 0, 0, [], by unfold makeC; rw [HGD.out]; rfl, LvsAt.nil _ _, rfl, Nat.le_refl _, Nat.zero_le _, by unfold makeD; rw [HGD.out]; rfl, below_setRow hbel (Nat.le_refl _) _⟩
  have hso := goodL_sorted HGD.out
  have hft := fun p hp => goodL_fits HGD.out (p := p) hp
  have CH := fun W (hb : Below w.heap.size w W) => leaves_any a n cap l W (hW.below hb) (hr.below hb) hn hn6 (fun p hp => by have := hft p hp; omega)
  have CV := fun W (hb : Below w.heap.size w W) => wit_any a n cap l key W (hr.below hb) hn hcap hcm hn6 hso
  unfold WitPost at CV
  have hlt9 : ∀ i ∈ witL n (placeL l key) (foundL l key), i < n := fun i hi => by rw [← hn] at hi ⊢; exact witL_lt hi
  have HMD : Hid (makeD l key = (witL n (placeL l key) (foundL l key)).map (mkD l)) := Lib.hid (by unfold makeD; rw [if_pos HGD.out, hn])
  obtain ⟨L, hL⟩ : ∃ q, witL n (placeL l key) (foundL l key) = q := ⟨_, rfl⟩
  have hKL : L.length ≤ 2 := by
    rw [← hL]; unfold witL
    split
    · simp
    · rw [List.length_append]; split <;> split <;> simp
  simp only [hL] at CV hlt9 HMD
  have HFT := Lib.hid hft
  have HN := Lib.hid hn
  have HLT := Lib.hid hlt9
  obtain ⟨K, hK⟩ : ∃ q, L.length = q := ⟨_, rfl⟩
  rw [hK] at hKL
  have HK := Lib.hid hK
  simp only [hK] at CV
  clear hL hso hft hlt9 hn hK
  go_upto_region 4 with (first | (go_at_call 39; refine (CG _ hbel).mono ?_; rintro e w2 ⟨rfl, hb⟩; have y4 := cells_of y4 hb hy4; have hy4 := Nat.lt_of_lt_of_le hy4 hb.size; have hbel := hbel.trans (hb.mono hbel.size); clear hb) | (refine wpList_storeRowTo (Z := #[.int .i64 (n : Int), .slice none 0 0]) rfl (.tmp 5) (.tmp 15) 46 rfl (by kernel_rfl) rfl (by rfl) (heap_push _ _ _) rfl (pf_oneM _ _ _ _) ?_))
  refine wp_nameE _ (fun W3 hX => ?_)
  have hb3 : Below w2.heap.size w2 W3 := by rw [hX]; exact below_setRow (Below.alloc (Below.refl _ _) (Nat.le_refl _) _) (Nat.le_refl _) _
  have y5 : W3.heap[w2.heap.size]? = some (.cells #[.int .i64 (n : Int), .slice none 0 0] 46 (0, 0)) := by rw [hX]; exact setRow_heap _ _ _ _ _ _ (heap_push _ _ _)
  clear hX
  have y4 := cells_of y4 hb3 hy4
  have hg45 : w.heap.size < w2.heap.size := hy4
  have hbel := hbel.trans (hb3.mono hbel.size)
  obtain ⟨g5, hg5⟩ : ∃ g, w2.heap.size = g := ⟨_, rfl⟩
  rw [hg5] at y5 hg45
  simp only [hg5]
  clear hg5 hb3 hy4
  have hy5 := (Array.getElem?_eq_some_iff.1 y5).1
  go_upto_region 5 with (go_at_call 74; refine (CH _ hbel).mono ?_; rintro e w4 ⟨vh, rfl, hoh, hb⟩; have y4 := cells_of y4 hb (by omega); have y5 := cells_of y5 hb hy5; have hbel := hbel.trans (hb.mono hbel.size))
  have h45 : g5 < W3.heap.size := hy5
  have hah := fun k hk => (hoh.lt k hk).1
  obtain ⟨ah, ch, rfl, hrh, hh1, hh2⟩ := own_sliceH hoh
  have hah : ∀ b' off sp, ah = some ⟨b', off, sp⟩ → b' ≠ g5 := fun b' off sp e => by
    have := hah b' (by rw [e]; rfl)
    omega
  have hy5 := (Array.getElem?_eq_some_iff.1 y5).1
  clear hoh hb h45
  go_upto_region 6 with (go_at_call 75; refine (CV _ hbel).mono ?_; rintro e w5 ⟨av, cpw, rfl, hrv, hav, hb⟩; have h54 := (Array.getElem?_eq_some_iff.1 y5).1; have y4 := cells_of y4 hb (by omega); have y5 := cells_of y5 hb hy5; have hbel := hbel.trans (hb.mono hbel.size); have hrh := hrh.below hb)
  have hav : ∀ b' off sp, av = some ⟨b', off, sp⟩ → b' ≠ g5 := fun b' off sp e => by have := hav b' off sp e; omega
  obtain ⟨base, hbase⟩ : ∃ b, w5.heap.size = b := ⟨_, rfl⟩
  have HB := Lib.hid hbase
  have hg5b : g5 < base := by rw [← hbase]; exact (Array.getElem?_eq_some_iff.1 y5).1
  have hwb : w.heap.size < g5 := hg45
  clear h54 hb CG CH CV hy5
  go_loopw [22] (fun vi wr => ∃ (k : Nat) (xs : List LeafV) (sv : Value), k ≤ K ∧ xs.length = k ∧ vi = .int .i64 k ∧ Hid (xs.map LeafV.d = (L.take k).map (mkD l)) ∧ wr.heap[g5]? = some (.cells #[.int .i64 (n : Int), sv] 46 (0, 0)) ∧ wr.ownsRow base 94 4 sv k (xs.flatMap LeafV.cells) ∧ (∀ x ∈ xs, x.held wr base) ∧ base ≤ wr.heap.size ∧ Kept g5 w5 wr) (fun vi _ => K - (intOf vi).toNat)
  case atStart => exact ⟨0, [], .slice none 0 0, Nat.zero_le _, rfl, rfl, Lib.hid rfl, y5, ⟨rfl, .inl ⟨rfl, rfl⟩⟩, (fun x h => by cases h), by omega, Kept.of (Below.refl _ _)⟩
  case round =>
    obtain ⟨k, xs, sv, hk, hxl, rfl, HX, y5, hown, hxs, hbw, hKp⟩ := hrel
    by_cases hlt : k < K
    rotate_left
    · have d9 : decide ((k : Int) < (K : Int)) = false := decide_eq_false (by omega)
      have d9n : decide (k < K) = false := decide_eq_false hlt
      obtain ⟨a9, c9, rfl, hr9, hc1, hc2⟩ := own_sliceH hown
      have y4 : wr.heap[w.heap.size]? = some (.cells #[.int .i64 0, .slice none 0 0] 46 (0, 0)) := (hKp.block _ (Array.getElem?_eq_some_iff.1 y4).1 (by omega)).trans y4
      have hbel : Below w.heap.size w wr := kept_belowM hbel hKp (by omega) (by omega)
      obtain rfl : k = K := by omega
      have hxd : xs.map LeafV.d = makeD l key := by rw [HX.out, HMD.out, List.take_of_length_le (by rw [HK.out]; omega)]
      have HXD := Lib.hid hxd
      have hmc : makeC l = (n : Int) := by unfold makeC; rw [if_pos HGD.out, HN.out]
      have HMC := Lib.hid hmc
      clear hxd hmc
      go_wp2_with (first | (refine wpList_load_mid rfl 46 (.tmp 5) rfl g5 0 rfl (#[.int .i64 (n : Int), .slice a9 k c9] : Array Value).toList _ (rangeAt_row5 y5) Tryd.underlying46 rfl (by kernel_rfl) ?_; rw [Array.toArray_toList]) | (refine wpList_storeRowTo (Z := #[.int .i64 (n : Int), .slice a9 k c9]) rfl (.tmp 4) (.tmp 47) 46 rfl (by kernel_rfl) rfl (by rfl) y4 rfl (pf_oneM _ _ _ _) ?_))
      have hrd := run_loadVar_mid (P := Tryd.prog) _ w.heap.size 0 46 (#[.int .i64 (n : Int), .slice a9 k c9] : Array Value).toList _ (rangeAt_row5 (setRow_heap _ _ _ _ _ _ y4)) Tryd.underlying46 rfl (by kernel_rfl)
      refine bodyPost_ret (v := .agg #[.int .i64 (n : Int), .slice a9 k c9]) ?_ rfl ?_
      · simp [results, Tryd.results32, asAddr]
        exact hrd
      have hheld : lvsHeld wr base a9 xs := ⟨hr9, own_held hown, hxs⟩
      exact ⟨a9, k, c9, xs, by rw [HMC.out], (hheld.same (SameT.setRow (by omega)) (SameT.setRow (by omega))).at, hxl, hc1, hc2, HXD.out, below_setRow hbel (Nat.le_refl _) _⟩
    have d1 : decide ((k : Int) < (K : Int)) = true := decide_eq_true (by omega)
    have d1n : decide (k < K) = true := decide_eq_true hlt
    have hrv := hrv.kept5 hKp hav
    obtain ⟨bv, ov, rfl, hbv, hcv⟩ := row_nat hrv (k := k) (by rw [HK.out]; exact hlt)
    have hi9 : L[k]'(by rw [HK.out]; exact hlt) < n := HLT.out _ (List.getElem_mem _)
    have htk : (L.take (k + 1)).map (mkD l) = (L.take k).map (mkD l) ++ [mkD l (L[k]'(by rw [HK.out]; exact hlt))] := by
      rw [List.take_succ_eq_append_getElem (by rw [HK.out]; exact hlt), List.map_append]; rfl
    obtain ⟨i9, hi99⟩ : ∃ i, L[k]'(by rw [HK.out]; exact hlt) = i := ⟨_, rfl⟩
    rw [hi99] at hcv hi9 htk
    clear hi99
    have hil : i9 < l.length := by rw [HN.out]; exact hi9
    have hab : ∀ b' off sp, a = some ⟨b', off, sp⟩ → l ≠ [] → b' < w.heap.size := fun b' off sp e hne => by
      obtain ⟨b, o, h1, h2, _⟩ := pr_range hr (k := 0) (List.length_pos_iff.2 hne)
      rw [e] at h1
      cases h1
      exact h2
    obtain ⟨b1, o1, rfl, hb1, hg1⟩ := pr_range (hr.below hbel) hil
    have hbg : b1 ≠ g5 := by have := hab b1 o1 none rfl (fun e => by rw [e] at hil; cases hil); omega
    have hfp := HFT.out _ (List.getElem_mem hil)
    have hmk : mkD l i9 = ⟨l[i9].k, l[i9].v, (i9 : Int), wayH (l.map leafH) i9⟩ := by unfold mkD; rw [List.getElem?_eq_getElem hil]
    obtain ⟨p, hp9⟩ : ∃ p, l[i9] = p := ⟨_, rfl⟩
    rw [hp9] at hg1 hfp hmk
    have CY := fun W (h1 : Kept g5 w5 W) (h2 : Below w.heap.size w W) => way_any n (l.map leafH) i9 ah ch W (by rw [List.length_map, HN.out]) hi9 hn6 hh1 hh2 (hrh.kept5 h1 hah) (hW.below h2)
    unfold WayPost at CY
    obtain ⟨WL, hWL⟩ : ∃ q, wayH (l.map leafH) i9 = q := ⟨_, rfl⟩
    simp only [hWL] at CY
    rw [hWL] at hmk
    have HMK := Lib.hid hmk
    have HTK := Lib.hid htk
    obtain ⟨iL, hiL, hzL, hsL, hbL⟩ := info_parts Tryd.infoLf
    clear hp9 hWL hmk htk
    have m0 : (0 : Int) ≤ (k : Int) := by omega
    have m1 : (k : Int) < (K : Int) := by omega
    have m2 : ((k : Nat) : Int).toNat = k := by omega
    go_upto_region 8 with fail
    refine wp_region_stateG (fun D x W => (D 0 = true → x 0 = .pointer (some ⟨g5, 1, none⟩)) ∧ (D 1 = true → x 1 = sv) ∧ (D 2 = true → x 2 = .slice (some ⟨b1, o1, none⟩) n cap) ∧ (D 3 = true → x 3 = .int .i64 (i9 : Int)) ∧ (D 4 = true → x 4 = .pointer (some ⟨b1, o1 + i9 * 2, none⟩)) ∧ (D 5 = true → x 5 = .pointer (some ⟨b1, o1 + i9 * 2, none⟩)) ∧ (D 6 = true → x 6 = .string p.k) ∧ (D 7 = true → x 7 = .slice (some ⟨b1, o1, none⟩) n cap) ∧ (D 8 = true → x 8 = .int .i64 (i9 : Int)) ∧ (D 9 = true → x 9 = .pointer (some ⟨b1, o1 + i9 * 2, none⟩)) ∧ (D 10 = true → x 10 = .pointer (some ⟨b1, o1 + i9 * 2 + 1, none⟩)) ∧ (D 11 = true → x 11 = .string p.v) ∧ (D 12 = true → x 12 = .int .i64 (i9 : Int)) ∧ (D 13 = true → x 13 = .slice ah n ch) ∧ (D 14 = true → x 14 = .int .i64 (i9 : Int)) ∧ (D 15 = true → ∃ pa pc, x 15 = .slice pa WL.length pc ∧ (⟨p.k, p.v, (i9 : Int), pa, WL.length, pc, WL⟩ : LeafV).held W base) ∧ (D 16 = true → ∃ pa pc, x 16 = .agg (⟨p.k, p.v, (i9 : Int), pa, WL.length, pc, WL⟩ : LeafV).cells.toArray ∧ (⟨p.k, p.v, (i9 : Int), pa, WL.length, pc, WL⟩ : LeafV).held W base) ∧ (D 17 = true → D 18 = false → ∃ pa pc g4, x 17 = .slice (some ⟨g4, 0, none⟩) 1 1 ∧ W.heap[g4]? = some (.cells (⟨p.k, p.v, (i9 : Int), pa, WL.length, pc, WL⟩ : LeafV).cells.toArray 94 (0, 0)) ∧ (⟨p.k, p.v, (i9 : Int), pa, WL.length, pc, WL⟩ : LeafV).held W base ∧ base ≤ g4) ∧ ((D 18 = false → W.ownsRow base 94 4 sv k (xs.flatMap LeafV.cells)) ∧ (D 18 = true → D 17 = true ∧ D 1 = true ∧ ∃ pa pc, W.ownsRow base 94 4 (x 18) (k + 1) (xs.flatMap LeafV.cells ++ (⟨p.k, p.v, (i9 : Int), pa, WL.length, pc, WL⟩ : LeafV).cells) ∧ (⟨p.k, p.v, (i9 : Int), pa, WL.length, pc, WL⟩ : LeafV).held W base)) ∧ (D 19 = true → x 19 = .pointer (some ⟨g5, 1, none⟩)) ∧ (D 20 = true → D 18 = true) ∧ W.heap[g5]? = some (.cells #[.int .i64 (n : Int), bif D 20 then x 18 else sv] 46 (0, 0)) ∧ (∀ x ∈ xs, x.held W base) ∧ base ≤ W.heap.size ∧ Kept g5 w5 W) (by kernel_rfl) (by kernel_rfl) (by kernel_rfl) (by kernel_rfl) (fun x => by simp only [fillFrom, Act.put, List.setIfInBounds_toArray, List.set_cons_succ, List.set_cons_zero, Nat.zero_add, Nat.reduceAdd]; rfl) ?_ ?_ ?_
    case refine_1 => exact fun x => ⟨(fun h => by cases h), (fun h => by cases h), (fun h => by cases h), (fun h => by cases h), (fun h => by cases h), (fun h => by cases h), (fun h => by cases h), (fun h => by cases h), (fun h => by cases h), (fun h => by cases h), (fun h => by cases h), (fun h => by cases h), (fun h => by cases h), (fun h => by cases h), (fun h => by cases h), (fun h => by cases h), (fun h => by cases h), (fun h => by cases h), ⟨fun _ => hown, fun h => by cases h⟩, (fun h => by cases h), (fun h => by cases h), y5, (fun y hy => (hxs y hy).same (SameT.below (Below.refl _ _).drew)), hbw, hKp.drew⟩
    case refine_2 =>
      refine ⟨?_, ?_, ?_, ?_, ?_, ?_, ?_, ?_, ?_, ?_, ?_, ?_, ?_, ?_, ?_, ?_, ?_, ?_, ?_, ?_, ?_, trivial⟩
      · intro D x w' hD hI hw hcl
        obtain ⟨i0, i1, i2, i3, i4, i5, i6, i7, i8, i9h, i10, i11, i12, i13, i14, i15, i16, i17, i18, i19, i20, iG, iX, iS, iK⟩ := hI.out
        clear hw
        go_wp2_with fail
        refine gPost_mk (v := .pointer (some ⟨g5, 1, none⟩)) rfl (by first | rfl | (show Value.pointer _ = Value.pointer _; simp)) ?_
        exact ⟨⟨(fun _ => rfl), i1, i2, i3, i4, i5, i6, i7, i8, i9h, i10, i11, i12, i13, i14, i15, i16, i17, i18, i19, i20, iG, iX, iS, iK⟩⟩
      · intro D x w' hD hI hw hcl
        obtain ⟨i0, i1, i2, i3, i4, i5, i6, i7, i8, i9h, i10, i11, i12, i13, i14, i15, i16, i17, i18, i19, i20, iG, iX, iS, iK⟩ := hI.out
        have d0 := i0 (hw 0 rfl)
        have h18 : D 18 = false := by
          cases h : D 18 with
          | false => rfl
          | true => have := (i18.2 h).2.1; rw [hD] at this; cases this
        have h20 : D 20 = false := by
          cases h : D 20 with
          | false => rfl
          | true => have := i20 h; rw [h18] at this; cases this
        rw [h20] at iG
        have c1 : w'.cell? ⟨g5, 1, none⟩ = some sv := cell_heap iG 1
        simp only [d0]
        clear hw
        go_wp2_with fail
        refine gPost_mk (v := sv) rfl rfl ?_
        exact ⟨⟨i0, (fun _ => rfl), i2, i3, i4, i5, i6, i7, i8, i9h, i10, i11, i12, i13, i14, i15, i16, i17, ⟨i18.1, fun h => ⟨(i18.2 h).1, rfl, (i18.2 h).2.2⟩⟩, i19, i20, (by show w'.heap[g5]? = some (Obj.cells #[.int .i64 (n : Int), bif D 20 then _ else sv] 46 (0, 0)); rw [h20]; exact iG), iX, iS, iK⟩⟩
      · intro D x w' hD hI hw hcl
        obtain ⟨i0, i1, i2, i3, i4, i5, i6, i7, i8, i9h, i10, i11, i12, i13, i14, i15, i16, i17, i18, i19, i20, iG, iX, iS, iK⟩ := hI.out
        clear hw
        go_wp2_with fail
        refine gPost_mk (v := .slice (some ⟨b1, o1, none⟩) n cap) rfl rfl ?_
        exact ⟨⟨i0, i1, (fun _ => rfl), i3, i4, i5, i6, i7, i8, i9h, i10, i11, i12, i13, i14, i15, i16, i17, i18, i19, i20, iG, iX, iS, iK⟩⟩
      · intro D x w' hD hI hw hcl
        obtain ⟨i0, i1, i2, i3, i4, i5, i6, i7, i8, i9h, i10, i11, i12, i13, i14, i15, i16, i17, i18, i19, i20, iG, iX, iS, iK⟩ := hI.out
        clear hw
        go_wp2_with fail
        refine gPost_mk (v := .int .i64 (i9 : Int)) rfl rfl ?_
        exact ⟨⟨i0, i1, i2, (fun _ => rfl), i4, i5, i6, i7, i8, i9h, i10, i11, i12, i13, i14, i15, i16, i17, i18, i19, i20, iG, iX, iS, iK⟩⟩
      · intro D x w' hD hI hw hcl
        obtain ⟨i0, i1, i2, i3, i4, i5, i6, i7, i8, i9h, i10, i11, i12, i13, i14, i15, i16, i17, i18, i19, i20, iG, iX, iS, iK⟩ := hI.out
        have d2 := i2 (hw 2 rfl)
        have d3 := i3 (hw 3 rfl)
        have n0 : (0 : Int) ≤ (i9 : Int) := by omega
        have n1 : (i9 : Int) < (n : Int) := by omega
        have n2 : ((i9 : Nat) : Int).toNat = i9 := by omega
        clear hw
        go_wp2_with fail
        refine gPost_mk (v := .pointer (some ⟨b1, o1 + i9 * 2, none⟩)) rfl (by first | rfl | (show Value.pointer _ = Value.pointer _; simp)) ?_
        exact ⟨⟨i0, i1, i2, i3, (fun _ => rfl), i5, i6, i7, i8, i9h, i10, i11, i12, i13, i14, i15, i16, i17, i18, i19, i20, iG, iX, iS, iK⟩⟩
      · intro D x w' hD hI hw hcl
        obtain ⟨i0, i1, i2, i3, i4, i5, i6, i7, i8, i9h, i10, i11, i12, i13, i14, i15, i16, i17, i18, i19, i20, iG, iX, iS, iK⟩ := hI.out
        have d4 := i4 (hw 4 rfl)
        clear hw
        go_wp2_with fail
        refine gPost_mk (v := .pointer (some ⟨b1, o1 + i9 * 2, none⟩)) rfl (by first | rfl | (show Value.pointer _ = Value.pointer _; simp)) ?_
        exact ⟨⟨i0, i1, i2, i3, i4, (fun _ => rfl), i6, i7, i8, i9h, i10, i11, i12, i13, i14, i15, i16, i17, i18, i19, i20, iG, iX, iS, iK⟩⟩
      · intro D x w' hD hI hw hcl
        obtain ⟨i0, i1, i2, i3, i4, i5, i6, i7, i8, i9h, i10, i11, i12, i13, i14, i15, i16, i17, i18, i19, i20, iG, iX, iS, iK⟩ := hI.out
        have d5 := i5 (hw 5 rfl)
        have cq : w'.cell? ⟨b1, o1 + i9 * 2, none⟩ = some (.string p.k) := by rw [iK.cell (p := ⟨b1, o1 + i9 * 2, none⟩) hb1 hbg]; exact hg1 0 _ rfl
        clear hw
        go_wp2_with fail
        refine gPost_mk (v := .string p.k) rfl rfl ?_
        exact ⟨⟨i0, i1, i2, i3, i4, i5, (fun _ => rfl), i7, i8, i9h, i10, i11, i12, i13, i14, i15, i16, i17, i18, i19, i20, iG, iX, iS, iK⟩⟩
      · intro D x w' hD hI hw hcl
        obtain ⟨i0, i1, i2, i3, i4, i5, i6, i7, i8, i9h, i10, i11, i12, i13, i14, i15, i16, i17, i18, i19, i20, iG, iX, iS, iK⟩ := hI.out
        clear hw
        go_wp2_with fail
        refine gPost_mk (v := .slice (some ⟨b1, o1, none⟩) n cap) rfl rfl ?_
        exact ⟨⟨i0, i1, i2, i3, i4, i5, i6, (fun _ => rfl), i8, i9h, i10, i11, i12, i13, i14, i15, i16, i17, i18, i19, i20, iG, iX, iS, iK⟩⟩
      · intro D x w' hD hI hw hcl
        obtain ⟨i0, i1, i2, i3, i4, i5, i6, i7, i8, i9h, i10, i11, i12, i13, i14, i15, i16, i17, i18, i19, i20, iG, iX, iS, iK⟩ := hI.out
        clear hw
        go_wp2_with fail
        refine gPost_mk (v := .int .i64 (i9 : Int)) rfl rfl ?_
        exact ⟨⟨i0, i1, i2, i3, i4, i5, i6, i7, (fun _ => rfl), i9h, i10, i11, i12, i13, i14, i15, i16, i17, i18, i19, i20, iG, iX, iS, iK⟩⟩
      · intro D x w' hD hI hw hcl
        obtain ⟨i0, i1, i2, i3, i4, i5, i6, i7, i8, i9h, i10, i11, i12, i13, i14, i15, i16, i17, i18, i19, i20, iG, iX, iS, iK⟩ := hI.out
        have d7 := i7 (hw 7 rfl)
        have d8 := i8 (hw 8 rfl)
        have n0 : (0 : Int) ≤ (i9 : Int) := by omega
        have n1 : (i9 : Int) < (n : Int) := by omega
        have n2 : ((i9 : Nat) : Int).toNat = i9 := by omega
        clear hw
        go_wp2_with fail
        refine gPost_mk (v := .pointer (some ⟨b1, o1 + i9 * 2, none⟩)) rfl (by first | rfl | (show Value.pointer _ = Value.pointer _; simp)) ?_
        exact ⟨⟨i0, i1, i2, i3, i4, i5, i6, i7, i8, (fun _ => rfl), i10, i11, i12, i13, i14, i15, i16, i17, i18, i19, i20, iG, iX, iS, iK⟩⟩
      · intro D x w' hD hI hw hcl
        obtain ⟨i0, i1, i2, i3, i4, i5, i6, i7, i8, i9h, i10, i11, i12, i13, i14, i15, i16, i17, i18, i19, i20, iG, iX, iS, iK⟩ := hI.out
        have d9 := i9h (hw 9 rfl)
        clear hw
        go_wp2_with fail
        refine gPost_mk (v := .pointer (some ⟨b1, o1 + i9 * 2 + 1, none⟩)) rfl (by first | rfl | (show Value.pointer _ = Value.pointer _; simp)) ?_
        exact ⟨⟨i0, i1, i2, i3, i4, i5, i6, i7, i8, i9h, (fun _ => rfl), i11, i12, i13, i14, i15, i16, i17, i18, i19, i20, iG, iX, iS, iK⟩⟩
      · intro D x w' hD hI hw hcl
        obtain ⟨i0, i1, i2, i3, i4, i5, i6, i7, i8, i9h, i10, i11, i12, i13, i14, i15, i16, i17, i18, i19, i20, iG, iX, iS, iK⟩ := hI.out
        have d10 := i10 (hw 10 rfl)
        have cq : w'.cell? ⟨b1, o1 + i9 * 2 + 1, none⟩ = some (.string p.v) := by rw [iK.cell (p := ⟨b1, o1 + i9 * 2 + 1, none⟩) hb1 hbg]; exact hg1 1 _ rfl
        clear hw
        go_wp2_with fail
        refine gPost_mk (v := .string p.v) rfl rfl ?_
        exact ⟨⟨i0, i1, i2, i3, i4, i5, i6, i7, i8, i9h, i10, (fun _ => rfl), i12, i13, i14, i15, i16, i17, i18, i19, i20, iG, iX, iS, iK⟩⟩
      · intro D x w' hD hI hw hcl
        obtain ⟨i0, i1, i2, i3, i4, i5, i6, i7, i8, i9h, i10, i11, i12, i13, i14, i15, i16, i17, i18, i19, i20, iG, iX, iS, iK⟩ := hI.out
        clear hw
        go_wp2_with fail
        refine gPost_mk (v := .int .i64 (i9 : Int)) rfl rfl ?_
        exact ⟨⟨i0, i1, i2, i3, i4, i5, i6, i7, i8, i9h, i10, i11, (fun _ => rfl), i13, i14, i15, i16, i17, i18, i19, i20, iG, iX, iS, iK⟩⟩
      · intro D x w' hD hI hw hcl
        obtain ⟨i0, i1, i2, i3, i4, i5, i6, i7, i8, i9h, i10, i11, i12, i13, i14, i15, i16, i17, i18, i19, i20, iG, iX, iS, iK⟩ := hI.out
        clear hw
        go_wp2_with fail
        refine gPost_mk (v := .slice ah n ch) rfl rfl ?_
        exact ⟨⟨i0, i1, i2, i3, i4, i5, i6, i7, i8, i9h, i10, i11, i12, (fun _ => rfl), i14, i15, i16, i17, i18, i19, i20, iG, iX, iS, iK⟩⟩
      · intro D x w' hD hI hw hcl
        obtain ⟨i0, i1, i2, i3, i4, i5, i6, i7, i8, i9h, i10, i11, i12, i13, i14, i15, i16, i17, i18, i19, i20, iG, iX, iS, iK⟩ := hI.out
        clear hw
        go_wp2_with fail
        refine gPost_mk (v := .int .i64 (i9 : Int)) rfl rfl ?_
        exact ⟨⟨i0, i1, i2, i3, i4, i5, i6, i7, i8, i9h, i10, i11, i12, i13, (fun _ => rfl), i15, i16, i17, i18, i19, i20, iG, iX, iS, iK⟩⟩
      · intro D x w' hD hI hw hcl
        obtain ⟨i0, i1, i2, i3, i4, i5, i6, i7, i8, i9h, i10, i11, i12, i13, i14, i15, i16, i17, i18, i19, i20, iG, iX, iS, iK⟩ := hI.out
        have d13 := i13 (hw 13 rfl)
        have d14 := i14 (hw 14 rfl)
        have CC := CY w' iK (kept_belowM hbel iK (by omega) (by rw [HB.out]; omega))
        clear hw
        go_wp2_with (go_at_call 23; refine CC.mono ?_; rintro e wx ⟨vy, rfl, hoy, hbx⟩; obtain ⟨pa, pc, rfl, hry, hp1, hp2⟩ := own_sliceH hoy)
        have hheld : (⟨p.k, p.v, (i9 : Int), pa, WL.length, pc, WL⟩ : LeafV).held wx base := ⟨⟨hry, rfl, hp1, hp2, by show p.k.size ≤ maxLen; unfold maxLen; omega, by show p.v.size ≤ maxLen; unfold maxLen; omega⟩, (own_held hoy).mono iS⟩
        refine gPost_mk (v := .slice pa WL.length pc) rfl rfl ?_
        exact ⟨⟨i0, i1, i2, i3, i4, i5, i6, i7, i8, i9h, i10, i11, i12, i13, i14, (fun _ => ⟨pa, pc, rfl, hheld⟩), (fun h => by obtain ⟨pa, pc, e1, e2⟩ := i16 h; exact ⟨pa, pc, e1, e2.same (SameT.below hbx)⟩), (fun h h2 => by obtain ⟨pa, pc, g4, e1, e2, e3, e4⟩ := i17 h h2; exact ⟨pa, pc, g4, e1, cells_of e2 hbx (Array.getElem?_eq_some_iff.1 e2).1, e3.same (SameT.below hbx), e4⟩), ⟨fun h => (own_kept9 · hbx) (i18.1 h), fun h => by obtain ⟨q1, q2, pa, pc, e1, e2⟩ := i18.2 h; exact ⟨q1, q2, pa, pc, (own_kept9 · hbx) e1, e2.same (SameT.below hbx)⟩⟩, i19, i20, (cells_of iG hbx (Array.getElem?_eq_some_iff.1 iG).1), (fun y hy => (iX y hy).same (SameT.below hbx)), (Nat.le_trans iS hbx.size), (iK.trans (Kept.of hbx))⟩⟩
      · intro D x w' hD hI hw hcl
        obtain ⟨i0, i1, i2, i3, i4, i5, i6, i7, i8, i9h, i10, i11, i12, i13, i14, i15, i16, i17, i18, i19, i20, iG, iX, iS, iK⟩ := hI.out
        have d6 := i6 (hw 6 rfl)
        have d11 := i11 (hw 11 rfl)
        have d12 := i12 (hw 12 rfl)
        obtain ⟨pa, pc, d15, e2⟩ := i15 (hw 15 rfl)
        clear hw
        go_wp2_with fail
        refine gPost_mk (v := .agg (⟨p.k, p.v, (i9 : Int), pa, WL.length, pc, WL⟩ : LeafV).cells.toArray) rfl rfl ?_
        exact ⟨⟨i0, i1, i2, i3, i4, i5, i6, i7, i8, i9h, i10, i11, i12, i13, i14, i15, (fun _ => ⟨pa, pc, rfl, e2⟩), i17, i18, i19, i20, iG, iX, iS, iK⟩⟩
      · intro D x w' hD hI hw hcl
        obtain ⟨i0, i1, i2, i3, i4, i5, i6, i7, i8, i9h, i10, i11, i12, i13, i14, i15, i16, i17, i18, i19, i20, iG, iX, iS, iK⟩ := hI.out
        obtain ⟨pa, pc, d16, e2⟩ := i16 (hw 16 rfl)
        simp only [d16]
        clear hw
        refine wpList_one rfl (.tmp 42) 44 94 rfl (by rfl) (one_leaf _ rfl _) ?_
        have hbx : Below w'.heap.size w' (w'.alloc (.cells (⟨p.k, p.v, (i9 : Int), pa, WL.length, pc, WL⟩ : LeafV).cells.toArray 94)) := Below.alloc (Below.refl _ _) (Nat.le_refl _) _
        refine gPost_mk (v := (.slice (some ⟨w'.heap.size, 0, none⟩) 1 1)) rfl rfl ?_
        exact ⟨⟨i0, i1, i2, i3, i4, i5, i6, i7, i8, i9h, i10, i11, i12, i13, i14, (fun h => by obtain ⟨pa, pc, e1, e2⟩ := i15 h; exact ⟨pa, pc, e1, e2.same (SameT.below hbx)⟩), (fun h => by obtain ⟨pa, pc, e1, e2⟩ := i16 h; exact ⟨pa, pc, e1, e2.same (SameT.below hbx)⟩), (fun _ _ => ⟨pa, pc, w'.heap.size, rfl, heap_push _ _ _, e2.same (SameT.below hbx), iS⟩), ⟨fun h => own_kept9 (i18.1 h) hbx, fun h => by have := (i18.2 h).1; rw [hD] at this; cases this⟩, i19, i20, (cells_of iG hbx (Array.getElem?_eq_some_iff.1 iG).1), (fun y hy => (iX y hy).same (SameT.below hbx)), (Nat.le_trans iS hbx.size), (iK.trans (Kept.of hbx))⟩⟩
      · intro D x w' hD hI hw hcl
        obtain ⟨i0, i1, i2, i3, i4, i5, i6, i7, i8, i9h, i10, i11, i12, i13, i14, i15, i16, i17, i18, i19, i20, iG, iX, iS, iK⟩ := hI.out
        have hw1 := hw 1 rfl
        have hw17 := hw 17 rfl
        have d1 := i1 hw1
        obtain ⟨pa, pc, g4, d17, e2, e3, e4⟩ := i17 hw17 hD
        simp only [d1, d17]
        clear hw
        have hown9 := i18.1 hD
        have hnews : ∀ j u, (⟨p.k, p.v, (i9 : Int), pa, WL.length, pc, WL⟩ : LeafV).cells[j]? = some u → w'.cell? ((⟨g4, 0, none⟩ : Addr).add j) = some u := fun j u hj => by
          rw [Addr.add_mid, Nat.zero_add, cell_heap e2, ← hj, List.getElem?_toArray]
        refine wpList_append_own _ rfl (.tmp 27) (.tmp 43) 44 rfl base 94 iL (.agg #[.string ⟨#[]⟩, .string ⟨#[]⟩, .int .i64 0, .slice none 0 0]) 4 64 Tryd.underlying44 hiL hzL hsL hbL rfl (by decide) _ _ _ rfl hown9 ⟨g4, 0, none⟩ 1 1 (⟨p.k, p.v, (i9 : Int), pa, WL.length, pc, WL⟩ : LeafV).cells rfl rfl hnews (fun u hu => by simp [LeafV.cells] at hu; rcases hu with rfl | rfl | rfl | rfl <;> rfl) (by unfold maxLen; omega) (by omega) iS ?_
        intro v9 w9 hown10 hgr _
        have hs9 : SameT 25 base w' w9 := SameT.grown hown9 hgr (by decide)
        have h20 : D 20 = false := by
          cases h : D 20 with
          | false => rfl
          | true => have := i20 h; rw [hD] at this; cases this
        have hk9 : Kept g5 w5 w9 := ⟨hgr.os.trans iK.os, hgr.tape.trans iK.tape, hgr.output.trans iK.output, Nat.le_trans iK.size hgr.size, fun j hj hne => (hgr.block j (Nat.lt_of_lt_of_le hj iK.size) (fun e => by have := (hown9.lt j e.symm).1; rw [HB.out] at hj; omega)).trans (iK.block j hj hne)⟩
        have hG9 : w9.heap[g5]? = some (.cells #[.int .i64 (n : Int), sv] 46 (0, 0)) := by
          rw [h20] at iG
          exact (hgr.block g5 (by omega) (fun e => by have := (hown9.lt g5 e.symm).1; omega)).trans iG
        refine gPost_mk (v := v9) rfl rfl ?_
        exact ⟨⟨i0, i1, i2, i3, i4, i5, i6, i7, i8, i9h, i10, i11, i12, i13, i14, (fun h => by obtain ⟨pa, pc, e1, e2⟩ := i15 h; exact ⟨pa, pc, e1, e2.same hs9⟩), (fun h => by obtain ⟨pa, pc, e1, e2⟩ := i16 h; exact ⟨pa, pc, e1, e2.same hs9⟩), (fun _ h => by cases h), ⟨fun h => (by cases h), fun _ => ⟨hw17, hw1, pa, pc, hown10, e3.same hs9⟩⟩, i19, (fun _ => rfl), (by show w9.heap[g5]? = some (Obj.cells #[.int .i64 (n : Int), bif D 20 then _ else sv] 46 (0, 0)); rw [h20]; exact hG9), (fun y hy => (iX y hy).same hs9), Nat.le_trans iS hgr.size, hk9⟩⟩
      · intro D x w' hD hI hw hcl
        obtain ⟨i0, i1, i2, i3, i4, i5, i6, i7, i8, i9h, i10, i11, i12, i13, i14, i15, i16, i17, i18, i19, i20, iG, iX, iS, iK⟩ := hI.out
        clear hw
        go_wp2_with fail
        refine gPost_mk (v := .pointer (some ⟨g5, 1, none⟩)) rfl (by first | rfl | (show Value.pointer _ = Value.pointer _; simp)) ?_
        exact ⟨⟨i0, i1, i2, i3, i4, i5, i6, i7, i8, i9h, i10, i11, i12, i13, i14, i15, i16, i17, i18, (fun _ => rfl), i20, iG, iX, iS, iK⟩⟩
      · intro D x w' hD hI hw hcl
        obtain ⟨i0, i1, i2, i3, i4, i5, i6, i7, i8, i9h, i10, i11, i12, i13, i14, i15, i16, i17, i18, i19, i20, iG, iX, iS, iK⟩ := hI.out
        have h18 := hw 18 rfl
        have d19 := i19 (hw 19 rfl)
        obtain ⟨q17, q1, pa, pc, e1, e3⟩ := i18.2 h18
        obtain ⟨a9, c9, d18, _⟩ := own_sliceH e1
        rw [hD] at iG
        have iG : w'.heap[g5]? = some (.cells #[.int .i64 (n : Int), sv] 46 (0, 0)) := iG
        have qk := cell_heap iG 1
        have fk := frozen_heap iG 1
        clear hw
        simp only [d18, d19]
        go_wp2_with fail
        refine gPost_no rfl ?_
        exact ⟨⟨i0, i1, i2, i3, i4, i5, i6, i7, i8, i9h, i10, i11, i12, i13, i14, (fun h => by obtain ⟨pa, pc, e1, e2⟩ := i15 h; exact ⟨pa, pc, e1, e2.same (SameT.put hg5b)⟩), (fun h => by obtain ⟨pa, pc, e1, e2⟩ := i16 h; exact ⟨pa, pc, e1, e2.same (SameT.put hg5b)⟩), (fun _ h2 => by have h9 : D 18 = false := h2; rw [h18] at h9; cases h9), ⟨fun h2 => (by have h9 : D 18 = false := h2; rw [h18] at h9; cases h9), fun _ => ⟨q17, q1, pa, pc, own_far e1 (fun j j1 j2 => row_oth' w' g5 1 j _ (by omega)), e3.same (SameT.put hg5b)⟩⟩, i19, (fun _ => h18), (by show _ = some (Obj.cells #[.int .i64 (n : Int), x 18] 46 (0, 0)); rw [d18]; exact row_put5 iG), (fun y hy => (iX y hy).same (SameT.put hg5b)), (by rw [World.size_setCell]; exact iS), iK.trans ⟨rfl, rfl, rfl, by rw [World.size_setCell]; exact Nat.le_refl _, fun j hj hne => row_oth' w' g5 1 j _ hne⟩⟩⟩
    intro w9 x hI
    obtain ⟨_, _, _, _, _, _, _, _, _, _, _, _, _, _, _, _, _, _, i18, _, _, iG, iX, iS, iK⟩ := hI
    obtain ⟨_, _, pa, pc, hownE, hheldE⟩ := i18.2 rfl
    have iG : w9.heap[g5]? = some (.cells #[.int .i64 (n : Int), x 18] 46 (0, 0)) := iG
    have hownE : w9.ownsRow base 94 4 (x 18) (k + 1) (xs.flatMap LeafV.cells ++ (⟨p.k, p.v, (i9 : Int), pa, WL.length, pc, WL⟩ : LeafV).cells) := hownE
    clear i18
    go_wp2
    go_roundw
    case rel =>
      refine ⟨k + 1, xs ++ [(⟨p.k, p.v, (i9 : Int), pa, WL.length, pc, WL⟩ : LeafV)], x 18, by omega, by simp [hxl], by go_num, Lib.hid ?_, iG, ?_, ?_, iS, iK⟩
      · rw [List.map_append, HX.out, HTK.out, HMK.out]; rfl
      · rw [List.flatMap_append, List.flatMap_cons, List.flatMap_nil, List.append_nil]
        exact hownE
      · intro y hy
        rcases List.mem_append.1 hy with h9 | h9
        · exact iX y h9
        · rw [List.mem_singleton.1 h9]; exact hheldE
    case measure => (simp [intOf]) <;> omega
end Go.Proofs.YtfikbaoiialfeaaDoor
namespace Go.Proofs.YtfikbaoiialfeaaDoor
open Go.RowKit
attribute [local go_sem] strV
set_option linter.unusedVariables false
def exL : List Pr := [⟨⟨#[98]⟩, ⟨#[49]⟩⟩, ⟨⟨#[100]⟩, ⟨#[50]⟩⟩]
theorem ex_good : goodL exL = true := by decide +kernel
theorem ex_wit : witL exL.length (placeL exL ⟨#[99]⟩) (foundL exL ⟨#[99]⟩) = [0, 1] := by decide +kernel
theorem ex_make : makeD exL ⟨#[99]⟩ = [mkD exL 0, mkD exL 1] := by unfold makeD; rw [if_pos ex_good, ex_wit]; rfl
theorem ex_count : makeC exL = 2 := by unfold makeC; rw [if_pos ex_good]; rfl
theorem ex_xs {xs : List LeafV} (h : xs.map LeafV.d = makeD exL ⟨#[99]⟩) : ∃ x y : LeafV, xs = [x, y] ∧ x.key = ⟨#[98]⟩ ∧ y.idx = 1 ∧ y.path.length = 1 := by
  rw [ex_make] at h
  have hl : xs.length = 2 := by have := congrArg List.length h; rw [List.length_map] at this; exact this
  match xs, hl, h with
  | [x, y], _, h =>
    rw [List.map_cons, List.map_cons, List.map_nil, List.cons.injEq, List.cons.injEq] at h
    obtain ⟨h1, h2, _⟩ := h
    refine ⟨x, y, rfl, ?_, ?_, ?_⟩
    · have := congrArg LeafD.key h1; exact this
    · have := congrArg LeafD.idx h2; exact this
    · have h3 : y.path = wayH (exL.map leafH) 1 := congrArg LeafD.path h2
      rw [h3, way_len 2 (exL.map leafH) 1 rfl (by decide)]
      decide +kernel
set_option maxRecDepth 100000 in
set_option maxHeartbeats 6400000 in
theorem first7_any (w : World) (hW : SW w) : Calls Tryd.prog 27 #[] w fun e w' => e = .returned (.bool true) ∧ Below w.heap.size w w' := by
  have hq := heap_push w #[.string ⟨#[98]⟩, .string ⟨#[49]⟩, .string ⟨#[100]⟩, .string ⟨#[50]⟩] 92
  have hb0 : Below w.heap.size w (w.alloc (.cells #[.string ⟨#[98]⟩, .string ⟨#[49]⟩, .string ⟨#[100]⟩, .string ⟨#[50]⟩] 92)) := Below.alloc (Below.refl _ _) (Nat.le_refl _) _
  have CM := make_any (some ⟨w.heap.size, 0, none⟩) 2 2 exL ⟨#[99]⟩ (w.alloc (.cells #[.string ⟨#[98]⟩, .string ⟨#[49]⟩, .string ⟨#[100]⟩, .string ⟨#[50]⟩] 92)) (hW.below hb0) (row_newW w #[.string ⟨#[98]⟩, .string ⟨#[49]⟩, .string ⟨#[100]⟩, .string ⟨#[50]⟩] 92) rfl (Nat.le_refl _) (by unfold maxLen; omega) (by omega)
  unfold MakePost at CM
  rw [ex_count] at CM
  go_enter Tryd.func27, Tryd.ntmps27
  go_upto_region 2 with (first | (go_at_call 32; refine CM.mono ?_; rintro e w2 ⟨a, k, cap, xs, rfl, hL, hxl, hk1, hk2, hxd, hb⟩) | (refine wpList_storeRowTo (Z := #[.int .i64 2, .slice a k cap]) rfl (.tmp 1) (.tmp 5) 46 rfl (by kernel_rfl) rfl (by rfl) (heap_push _ _ _) rfl (pf_oneM _ _ _ _) ?_))
  refine wp_nameE _ (fun W3 hX => ?_)
  have hb3 : Below w2.heap.size w2 W3 := by rw [hX]; exact below_setRow (Below.alloc (Below.refl _ _) (Nat.le_refl _) _) (Nat.le_refl _) _
  have hx : W3.heap[w2.heap.size]? = some (.cells #[.int .i64 2, .slice a k cap] 46 (0, 0)) := by rw [hX]; exact setRow_heap _ _ _ _ _ _ (heap_push _ _ _)
  clear hX
  have hbel : Below w.heap.size w W3 := (hb0.trans (hb.mono hb0.size)).trans (hb3.mono (Nat.le_trans hb0.size hb.size))
  obtain ⟨x, y, rfl, hxk, hyi, hyp⟩ := ex_xs hxd
  obtain rfl : k = 2 := hxl.symm
  have hL := hL.below hb3
  obtain ⟨b, off, rfl, hbb, hg0⟩ := lv_range hL.row (k := 0) (by simp)
  obtain ⟨b2, off2, he2, _, hg1⟩ := lv_range hL.row (k := 1) (by simp)
  simp only [Option.some.injEq, Addr.mk.injEq, and_true] at he2
  obtain ⟨rfl, rfl⟩ := he2
  have hyn : y.pn = 1 := by rw [← (hL.each y (by simp)).len]; exact hyp
  have c0 : W3.cell? ⟨w2.heap.size, 0, none⟩ = some (.int .i64 2) := cell_heap hx 0
  have c1 : W3.cell? ⟨w2.heap.size, 1, none⟩ = some (.slice (some ⟨b, off, none⟩) 2 cap) := cell_heap hx 1
  have k0 : W3.cell? ⟨b, off, none⟩ = some (.string ⟨#[98]⟩) := by
    have h9 : W3.cell? ⟨b, off + 0 * 4 + 0, none⟩ = some (.string x.key) := hg0 0 (.string x.key) rfl
    rw [hxk] at h9; simpa using h9
  have k1 : W3.cell? ⟨b, off + 4 + 2, none⟩ = some (.int .i64 1) := by
    have h9 : W3.cell? ⟨b, off + 1 * 4 + 2, none⟩ = some (.int .i64 y.idx) := hg1 2 (.int .i64 y.idx) rfl
    rw [hyi] at h9; simpa using h9
  have k2 : W3.cell? ⟨b, off + 4 + 3, none⟩ = some (.slice y.pa 1 y.pc) := by
    have h9 : W3.cell? ⟨b, off + 1 * 4 + 3, none⟩ = some (.slice y.pa y.pn y.pc) := hg1 3 (.slice y.pa y.pn y.pc) rfl
    rw [hyn] at h9; simpa using h9
  have k3 : W3.cell? ⟨b, off + 6, none⟩ = some (.int .i64 1) := k1
  have k4 : W3.cell? ⟨b, off + 7, none⟩ = some (.slice y.pa 1 y.pc) := k2
  clear hg0 hg1 hxd hxk hyi hyp hyn hL hxl CM
  go_wp2
  go_ret
  exact ⟨by first | rfl | simp, hbel⟩
end Go.Proofs.YtfikbaoiialfeaaDoor
