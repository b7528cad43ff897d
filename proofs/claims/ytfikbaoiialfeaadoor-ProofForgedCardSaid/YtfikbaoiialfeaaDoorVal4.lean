/- Lacks: does a proof show that a key is absent. -/
import Derived.Test.YtfikbaoiialfeaaDoorVal3
import Derived.BigRegion
import Derived.RegionTactic
import Derived.BigQuiet
import Derived.Deep.QuietTactic
import Derived.Deep.MidRow
import Derived.LoopTactic
import Derived.BigFrame
import Derived.WalkKit
import Derived.ProofKit
import Derived.Handy
import Derived.Below
import Derived.Lib.Hide
import Derived.IntWalk
import Derived.Outline
import Derived.WalkLawsBesides
import Derived.WalkSpells
namespace Go.Proofs.YtfikbaoiialfeaaDoor
open Go.RowKit
attribute [local go_sem] strV
set_option linter.unusedVariables false
def gapB (q : List UInt8) (ct : Int) (xs : List LeafV) (key : ByteArray) : Bool := match xs with
  | [] => (ct == 0) && (q == rootF 0 z32)
  | [x] => ((x.idx == 0) && lessK key x.key) || ((x.idx == ct - 1) && lessK x.key key)
  | x :: y :: _ => ((y.idx == x.idx + 1) && lessK x.key key) && lessK key y.key
def lacksF (q : List UInt8) (ct : Int) (xs : List LeafV) (key : ByteArray) : Bool := mayPfB ct xs && xs.all (standB q ct) && gapB q ct xs key
theorem ba_data {x y : ByteArray} (h : x.data.toList = y.data.toList) : x = y := by
  cases x; cases y
  simp only [ByteArray.mk.injEq]
  exact Array.toList_inj.1 h
theorem lessK_gtr (x y : ByteArray) : lessK x y = (!lessK y x && !(y.toList == x.toList)) := by
  unfold lessK
  cases h : Op.bytesLess x.data.toList y.data.toList
  · cases h2 : Op.bytesLess y.data.toList x.data.toList
    · rw [tl_eq.2 (ba_data (less_tri _ _ h2 h))]; rfl
    · rfl
  · rw [less_asym _ _ h]
    cases h3 : (y.toList == x.toList)
    · rfl
    · rw [tl_eq.1 h3, less_irr] at h; cases h
theorem lessK_tl (x y : ByteArray) : Op.bytesLess x.toList y.toList = lessK x y := by unfold lessK; rw [ByteArray.toList_eq, ByteArray.toList_eq]
set_option maxRecDepth 100000 in
set_option maxHeartbeats 12800000 in
theorem lacks_any (q : List UInt8) (hq : q.length = 32) (ct : Int) (a : Option Addr) (n cap : Nat) (xs : List LeafV) (key : ByteArray) (w : World) (hS : SW w) (h : LvsAt w a xs) (hn : xs.length = n) (hnm : n ≤ cap ∧ cap ≤ maxLen) :
    Calls Tryd.prog 35 #[.agg (hrow q), .agg #[.int .i64 ct, .slice a n cap], .string key] w fun e w' => e = .returned (.bool (lacksF q ct xs key)) ∧ Below w.heap.size w w' := by
  have hnM : n ≤ maxLen := Nat.le_trans hnm.1 hnm.2
  have CM := fun W (hb : Below w.heap.size w W) => mayPf_any ct a n cap xs W (h.below hb) hn hnM
  have HNM := Lib.hid hnm
  have hcap := hnm.1
  have hcm := hnm.2
  unfold maxLen at hcm
  obtain ⟨km, em⟩ : ∃ b, mayPfB ct xs = b := ⟨_, rfl⟩
  simp only [em] at CM
  have HEM := Lib.hid em
  have HN := Lib.hid hn
  obtain ⟨r, hr9⟩ : ∃ r, lacksF q ct xs key = r := ⟨_, rfl⟩
  rw [hr9]
  unfold lacksF at hr9
  have HR := Lib.hid hr9
  clear em hn hr9 hnm hnM
  have hz0 := al2_0 w (.cells (hrow q) 25) (.cells #[.int .i64 ct, .slice a n cap] 46)
  have hz1 := al2_1 w (.cells (hrow q) 25) (.cells #[.int .i64 ct, .slice a n cap] 46)
  have hbA := al2_below w (.cells (hrow q) 25) (.cells #[.int .i64 ct, .slice a n cap] 46)
  go_enter Tryd.func35, Tryd.ntmps35
  go_upto_region 1 with fail
  refine wp_nameE _ (fun W1 hX => ?_)
  have hQ : W1.heap[w.heap.size]? = some (.cells (hrow q) 25 (0, 0)) := by rw [hX]; exact hz0
  have hP : W1.heap[w.heap.size + 1]? = some (.cells #[.int .i64 ct, .slice a n cap] 46 (0, 0)) := by rw [hX]; exact hz1
  have hbel : Below w.heap.size w W1 := by rw [hX]; exact hbA
  clear hX hz0 hz1 hbA
  have p0 : W1.cell? ⟨w.heap.size + 1, 0, none⟩ = some (.int .i64 ct) := cell_heap hP 0
  have p1 : W1.cell? ⟨w.heap.size + 1, 1, none⟩ = some (.slice a n cap) := cell_heap hP 1
  cases km
  · obtain rfl : r = false := by rw [← HR.out, HEM.out]; rfl
    go_wp2_with (first | (refine wpList_load_mid rfl 25 (.tmp 3) rfl w.heap.size 0 rfl (H32.cells ⟨q, hq⟩) _ (hrow_range (show _ = some (Obj.cells (hrow (⟨q, hq⟩ : H32).1) 25 (0, 0)) from hQ)) Tryd.underlying25 rfl (hash_info (⟨q, hq⟩ : H32)) ?_; rw [show (H32.cells ⟨q, hq⟩).toArray = hrow q from rfl]) | (refine wpList_load_midG 25 (.tmp 3) rfl w.heap.size 0 rfl (H32.cells ⟨q, hq⟩) _ (hrow_range (show _ = some (Obj.cells (hrow (⟨q, hq⟩ : H32).1) 25 (0, 0)) from hQ)) Tryd.underlying25 rfl (hash_info (⟨q, hq⟩ : H32)) (by rfl) ?_; rw [show (H32.cells ⟨q, hq⟩).toArray = hrow q from rfl]) | (go_at_call 36; (with_reducible refine (CM _ hbel).mono ?_); rintro e w2 ⟨rfl, hb⟩; have hQ := cells_of hQ hb (Array.getElem?_eq_some_iff.1 hQ).1; have hP := cells_of hP hb (Array.getElem?_eq_some_iff.1 hP).1; have p0 := cell_heap hP 0; have p1 := cell_heap hP 1; have hbel := hbel.trans (hb.mono hbel.size); clear hb))
    go_ret
    exact ⟨by first | rfl | simp, hbel⟩
  have CS := fun W (hb : Below w.heap.size w W) => matches_any q hq ct _ _ _ _ W (hS.below hb) (h.below hb) HN.out HNM.out HEM.out
  obtain ⟨sa, hsa⟩ : ∃ s, xs.all (standB q ct) = s := ⟨_, rfl⟩
  have HSA := Lib.hid hsa
  simp only [hsa] at CS
  clear hsa
  cases sa
  · obtain rfl : r = false := by rw [← HR.out, HEM.out, HSA.out]; rfl
    go_wp2_with (first | (refine wpList_load_mid rfl 25 (.tmp 3) rfl w.heap.size 0 rfl (H32.cells ⟨q, hq⟩) _ (hrow_range (show _ = some (Obj.cells (hrow (⟨q, hq⟩ : H32).1) 25 (0, 0)) from hQ)) Tryd.underlying25 rfl (hash_info (⟨q, hq⟩ : H32)) ?_; rw [show (H32.cells ⟨q, hq⟩).toArray = hrow q from rfl]) | (refine wpList_load_midG 25 (.tmp 3) rfl w.heap.size 0 rfl (H32.cells ⟨q, hq⟩) _ (hrow_range (show _ = some (Obj.cells (hrow (⟨q, hq⟩ : H32).1) 25 (0, 0)) from hQ)) Tryd.underlying25 rfl (hash_info (⟨q, hq⟩ : H32)) (by rfl) ?_; rw [show (H32.cells ⟨q, hq⟩).toArray = hrow q from rfl]) | (go_at_call 36; (with_reducible refine (CM _ hbel).mono ?_); rintro e w2 ⟨rfl, hb⟩; have hQ := cells_of hQ hb (Array.getElem?_eq_some_iff.1 hQ).1; have hP := cells_of hP hb (Array.getElem?_eq_some_iff.1 hP).1; have p0 := cell_heap hP 0; have p1 := cell_heap hP 1; have hbel := hbel.trans (hb.mono hbel.size); clear hb) | (go_at_call 76; (with_reducible refine (CS _ hbel).mono ?_); rintro e w3 ⟨rfl, hb⟩; have hQ := cells_of hQ hb (Array.getElem?_eq_some_iff.1 hQ).1; have hP := cells_of hP hb (Array.getElem?_eq_some_iff.1 hP).1; have p0 := cell_heap hP 0; have p1 := cell_heap hP 1; have hbel := hbel.trans (hb.mono hbel.size); clear hb))
    go_ret
    exact ⟨by first | rfl | simp, hbel⟩
  obtain ⟨hc0, hc1, hn2⟩ := may_few HEM.out
  have hfit := fun x hx => may_leaf HEM.out (x := x) hx
  have HFIT := Lib.hid hfit
  clear hfit
  match xs, HN.out, h with
  | [], hn9, h =>
    obtain rfl : n = 0 := hn9.symm
    go_upto_region 6 with (first | (refine wpList_load_mid rfl 25 (.tmp 3) rfl w.heap.size 0 rfl (H32.cells ⟨q, hq⟩) _ (hrow_range (show _ = some (Obj.cells (hrow (⟨q, hq⟩ : H32).1) 25 (0, 0)) from hQ)) Tryd.underlying25 rfl (hash_info (⟨q, hq⟩ : H32)) ?_; rw [show (H32.cells ⟨q, hq⟩).toArray = hrow q from rfl]) | (refine wpList_load_midG 25 (.tmp 3) rfl w.heap.size 0 rfl (H32.cells ⟨q, hq⟩) _ (hrow_range (show _ = some (Obj.cells (hrow (⟨q, hq⟩ : H32).1) 25 (0, 0)) from hQ)) Tryd.underlying25 rfl (hash_info (⟨q, hq⟩ : H32)) (by rfl) ?_; rw [show (H32.cells ⟨q, hq⟩).toArray = hrow q from rfl]) | (go_at_call 36; (with_reducible refine (CM _ hbel).mono ?_); rintro e w2 ⟨rfl, hb⟩; have hQ := cells_of hQ hb (Array.getElem?_eq_some_iff.1 hQ).1; have hP := cells_of hP hb (Array.getElem?_eq_some_iff.1 hP).1; have p0 := cell_heap hP 0; have p1 := cell_heap hP 1; have hbel := hbel.trans (hb.mono hbel.size); clear hb) | (go_at_call 76; (with_reducible refine (CS _ hbel).mono ?_); rintro e w3 ⟨rfl, hb⟩; have hQ := cells_of hQ hb (Array.getElem?_eq_some_iff.1 hQ).1; have hP := cells_of hP hb (Array.getElem?_eq_some_iff.1 hP).1; have p0 := cell_heap hP 0; have p1 := cell_heap hP 1; have hbel := hbel.trans (hb.mono hbel.size); clear hb))
    clear CM CS
    refine wp_nameE _ (fun W6 hX => ?_)
    rw [← hX] at hQ hP hbel p0
    clear hX
    have hPl := (Array.getElem?_eq_some_iff.1 hP).1
    have hQl := (Array.getElem?_eq_some_iff.1 hQ).1
    by_cases hct : ct = 0
    · have e0 : (ct == 0) = true := beq_iff_eq.2 hct
      have CR := fun W (hb : Below W6.heap.size W6 W) => root_any 0 z32 W ((hS.below hbel).below hb) rfl
      have hRl := rootF_len 0 z32
      obtain ⟨R0, hR0⟩ : ∃ F, rootF 0 z32 = F := ⟨_, rfl⟩
      rw [hR0] at hRl
      simp only [hR0] at CR
      obtain ⟨sb, hsb⟩ : ∃ s, (q == R0) = s := ⟨_, rfl⟩
      have hEQ := fun V : World => (run_equal_hash V 25 q R0 hq hRl Tryd.underlying25 Tryd.underlying5 (by kernel_rfl) : (Op.equalIn 10000 25 (.agg (hrow q)) (.agg (hrow R0))).run Tryd.prog V = .ok (q == R0) V)
      simp only [hsb] at hEQ
      obtain rfl : r = sb := by
        have h9 := HR.out
        rw [HEM.out] at h9
        rw [← h9, ← hsb, ← hR0]
        show (true && true && ((ct == 0) && (q == rootF 0 z32))) = _
        rw [e0]; rfl
      clear hR0 hsb hct
      refine wp_region_facts [Fact.eq (.pointer (some ⟨w.heap.size + 1, 0, none⟩)), Fact.eq (.int .i64 ct), Fact.eq (.bool true), Fact.eq (.bool true), Fact.eq (.agg (hrow q)), Fact.eq (.agg (hrow z32)), Fact.eq (.agg (hrow R0)), Fact.eq (.bool r), Fact.eq (.bool r), Fact.eq (.bool r)] (by kernel_rfl) (by kernel_rfl) (by kernel_rfl) (by kernel_rfl) (fun x => by simp only [fillFrom, Act.put, List.setIfInBounds_toArray, List.set_cons_succ, List.set_cons_zero]; rfl) ?_ ?_
      · refine ⟨?_, ?_, ?_, ?_, ?_, ?_, ?_, ?_, ?_, ?_, trivial⟩
        · intro x w' hbw hd
          clear hd
          go_wp2_with fail
          exact frPost_mk rfl (by repeat (first | assumption | exact Below.refl _ _ | refine bch ?_ (by assumption) | refine Below.alloc ?_ (by simp) _)) rfl
        · intro x w' hbw hd
          have d0 : x 0 = .pointer (some ⟨w.heap.size + 1, 0, none⟩) := hd 0 rfl
          clear hd
          have hpc := cells_of hP hbw hPl
          have c0 : w'.cell? ⟨w.heap.size + 1, 0, none⟩ = some (.int .i64 ct) := cell_heap hpc 0
          go_wp2_with (first | fail)
          exact frPost_mk rfl (by repeat (first | assumption | exact Below.refl _ _ | refine bch ?_ (by assumption) | refine Below.alloc ?_ (by simp) _)) rfl
        · intro x w' hbw hd
          have d1 : x 1 = .int .i64 ct := hd 1 rfl
          clear hd
          go_wp2_with fail
          exact frPost_mk rfl (by repeat (first | assumption | exact Below.refl _ _ | refine bch ?_ (by assumption) | refine Below.alloc ?_ (by simp) _)) rfl
        · intro x w' hbw hd
          have d2 : x 2 = .bool true := hd 2 rfl
          clear hd
          go_wp2_with fail
          exact frPost_mk rfl (by repeat (first | assumption | exact Below.refl _ _ | refine bch ?_ (by assumption) | refine Below.alloc ?_ (by simp) _)) rfl
        · intro x w' hbw hd
          have d3 : x 3 = .bool true := hd 3 rfl
          clear hd
          have hrg := hrow_range (show w'.heap[w.heap.size]? = some (Obj.cells (hrow (⟨q, hq⟩ : H32).1) 25 (0, 0)) from cells_of hQ hbw hQl)
          go_wp2_with (first | (refine wpList_load_midG 25 (.tmp 3) rfl w.heap.size 0 rfl (H32.cells ⟨q, hq⟩) _ hrg Tryd.underlying25 rfl (hash_info (⟨q, hq⟩ : H32)) (by first | rfl | (simp [Region.wanted, yielded, *]; done)) ?_; rw [show (H32.cells ⟨q, hq⟩).toArray = hrow q from rfl]))
          exact frPost_mk rfl (by repeat (first | assumption | exact Below.refl _ _ | refine bch ?_ (by assumption) | refine Below.alloc ?_ (by simp) _)) rfl
        · intro x w' hbw hd
          have d3 : x 3 = .bool true := hd 3 rfl
          clear hd
          go_wp2_with fail
          exact frPost_mk rfl (by repeat (first | assumption | exact Below.refl _ _ | refine bch ?_ (by assumption) | refine Below.alloc ?_ (by simp) _)) rfl
        · intro x w' hbw hd
          have d3 : x 3 = .bool true := hd 3 rfl
          have d5 : x 5 = .agg (hrow z32) := hd 5 rfl
          clear hd
          have CC := CR w' hbw
          go_wp2_with (first | (go_at_call 16; refine (CC).mono ?_; rintro e wx ⟨rfl, hbx⟩))
          exact frPost_mk rfl (by repeat (first | assumption | exact Below.refl _ _ | refine bch ?_ (by assumption) | refine Below.alloc ?_ (by simp) _)) rfl
        · intro x w' hbw hd
          have d3 : x 3 = .bool true := hd 3 rfl
          have d4 : x 4 = .agg (hrow q) := hd 4 rfl
          have d6 : x 6 = .agg (hrow R0) := hd 6 rfl
          clear hd
          have hE := hEQ w'
          go_wp2_with (first | fail)
          exact frPost_mk rfl (by repeat (first | assumption | exact Below.refl _ _ | refine bch ?_ (by assumption) | refine Below.alloc ?_ (by simp) _)) rfl
        · intro x w' hbw hd
          have d3 : x 3 = .bool true := hd 3 rfl
          have d7 : x 7 = .bool r := hd 7 rfl
          clear hd
          go_wp2_with fail
          exact frPost_mk rfl (by repeat (first | assumption | exact Below.refl _ _ | refine bch ?_ (by assumption) | refine Below.alloc ?_ (by simp) _)) rfl
        · intro x w' hbw hd
          have d8 : x 8 = .bool r := hd 8 rfl
          clear hd
          go_wp2_with fail
          exact frPost_mk rfl (by repeat (first | assumption | exact Below.refl _ _ | refine bch ?_ (by assumption) | refine Below.alloc ?_ (by simp) _)) rfl
      intro x9 w7 hb7 hd
      have d9 : x9 9 = .bool r := hd 9 (by decide)
      clear hd
      simp only [Nat.zero_add, Nat.reduceAdd, d9]
      have hbel := hbel.trans (hb7.mono hbel.size)
      go_wp2
      go_ret
      exact ⟨by first | rfl | simp, hbel⟩
    · have e0 : (ct == 0) = false := beq_eq_false_iff_ne.2 hct
      obtain rfl : r = false := by
        have h9 := HR.out
        rw [← h9]
        show (_ && true && ((ct == 0) && _)) = false
        rw [e0, Bool.false_and, Bool.and_false]
      clear hct
      refine wp_region_facts [Fact.eq (.pointer (some ⟨w.heap.size + 1, 0, none⟩)), Fact.eq (.int .i64 ct), Fact.eq (.bool false), Fact.eq (.bool false), Fact.eq (.tuple #[]), Fact.eq (.tuple #[]), Fact.eq (.tuple #[]), Fact.eq (.tuple #[]), Fact.eq (.bool false), Fact.eq (.bool false)] (by kernel_rfl) (by kernel_rfl) (by kernel_rfl) (by kernel_rfl) (fun x => by simp only [fillFrom, Act.put, List.setIfInBounds_toArray, List.set_cons_succ, List.set_cons_zero]; rfl) ?_ ?_
      · refine ⟨?_, ?_, ?_, ?_, ?_, ?_, ?_, ?_, ?_, ?_, trivial⟩
        · intro x w' hbw hd
          clear hd
          go_wp2_with fail
          exact frPost_mk rfl (by repeat (first | assumption | exact Below.refl _ _ | refine bch ?_ (by assumption) | refine Below.alloc ?_ (by simp) _)) rfl
        · intro x w' hbw hd
          have d0 : x 0 = .pointer (some ⟨w.heap.size + 1, 0, none⟩) := hd 0 rfl
          clear hd
          have hpc := cells_of hP hbw hPl
          have c0 : w'.cell? ⟨w.heap.size + 1, 0, none⟩ = some (.int .i64 ct) := cell_heap hpc 0
          go_wp2_with (first | fail)
          exact frPost_mk rfl (by repeat (first | assumption | exact Below.refl _ _ | refine bch ?_ (by assumption) | refine Below.alloc ?_ (by simp) _)) rfl
        · intro x w' hbw hd
          have d1 : x 1 = .int .i64 ct := hd 1 rfl
          clear hd
          go_wp2_with fail
          exact frPost_mk rfl (by repeat (first | assumption | exact Below.refl _ _ | refine bch ?_ (by assumption) | refine Below.alloc ?_ (by simp) _)) rfl
        · intro x w' hbw hd
          have d2 : x 2 = .bool false := hd 2 rfl
          clear hd
          go_wp2_with fail
          exact frPost_mk rfl (by repeat (first | assumption | exact Below.refl _ _ | refine bch ?_ (by assumption) | refine Below.alloc ?_ (by simp) _)) rfl
        · intro x w' hbw hd
          have d3 : x 3 = .bool false := hd 3 rfl
          clear hd
          go_wp2_with fail
          first | exact frPost_mk rfl (by repeat (first | assumption | exact Below.refl _ _ | refine bch ?_ (by assumption) | refine Below.alloc ?_ (by simp) _)) rfl | exact ⟨rfl, rfl, Below.refl _ _, rfl⟩
        · intro x w' hbw hd
          have d3 : x 3 = .bool false := hd 3 rfl
          clear hd
          go_wp2_with fail
          first | exact frPost_mk rfl (by repeat (first | assumption | exact Below.refl _ _ | refine bch ?_ (by assumption) | refine Below.alloc ?_ (by simp) _)) rfl | exact ⟨rfl, rfl, Below.refl _ _, rfl⟩
        · intro x w' hbw hd
          have d3 : x 3 = .bool false := hd 3 rfl
          have d5 : x 5 = .tuple #[] := hd 5 rfl
          clear hd
          go_wp2_with (first | fail)
          first | exact frPost_mk rfl (by repeat (first | assumption | exact Below.refl _ _ | refine bch ?_ (by assumption) | refine Below.alloc ?_ (by simp) _)) rfl | exact ⟨rfl, rfl, Below.refl _ _, rfl⟩
        · intro x w' hbw hd
          have d3 : x 3 = .bool false := hd 3 rfl
          have d4 : x 4 = .tuple #[] := hd 4 rfl
          have d6 : x 6 = .tuple #[] := hd 6 rfl
          clear hd
          go_wp2_with fail
          first | exact frPost_mk rfl (by repeat (first | assumption | exact Below.refl _ _ | refine bch ?_ (by assumption) | refine Below.alloc ?_ (by simp) _)) rfl | exact ⟨rfl, rfl, Below.refl _ _, rfl⟩
        · intro x w' hbw hd
          have d3 : x 3 = .bool false := hd 3 rfl
          have d7 : x 7 = .tuple #[] := hd 7 rfl
          clear hd
          go_wp2_with fail
          exact frPost_mk rfl (by repeat (first | assumption | exact Below.refl _ _ | refine bch ?_ (by assumption) | refine Below.alloc ?_ (by simp) _)) rfl
        · intro x w' hbw hd
          have d8 : x 8 = .bool false := hd 8 rfl
          clear hd
          go_wp2_with fail
          exact frPost_mk rfl (by repeat (first | assumption | exact Below.refl _ _ | refine bch ?_ (by assumption) | refine Below.alloc ?_ (by simp) _)) rfl
      intro x9 w7 hb7 hd
      have d9 : x9 9 = .bool false := hd 9 (by decide)
      clear hd
      simp only [Nat.zero_add, Nat.reduceAdd, d9]
      have hbel := hbel.trans (hb7.mono hbel.size)
      go_wp2
      go_ret
      exact ⟨by first | rfl | simp, hbel⟩
  | [x], hn9, h =>
    obtain rfl : n = 1 := hn9.symm
    obtain ⟨_, _, _, _, hx0, hx1, _⟩ := HFIT.out x (by simp)
    go_upto_region 8 with (first | (refine wpList_load_mid rfl 25 (.tmp 3) rfl w.heap.size 0 rfl (H32.cells ⟨q, hq⟩) _ (hrow_range (show _ = some (Obj.cells (hrow (⟨q, hq⟩ : H32).1) 25 (0, 0)) from hQ)) Tryd.underlying25 rfl (hash_info (⟨q, hq⟩ : H32)) ?_; rw [show (H32.cells ⟨q, hq⟩).toArray = hrow q from rfl]) | (refine wpList_load_midG 25 (.tmp 3) rfl w.heap.size 0 rfl (H32.cells ⟨q, hq⟩) _ (hrow_range (show _ = some (Obj.cells (hrow (⟨q, hq⟩ : H32).1) 25 (0, 0)) from hQ)) Tryd.underlying25 rfl (hash_info (⟨q, hq⟩ : H32)) (by rfl) ?_; rw [show (H32.cells ⟨q, hq⟩).toArray = hrow q from rfl]) | (go_at_call 36; (with_reducible refine (CM _ hbel).mono ?_); rintro e w2 ⟨rfl, hb⟩; have hQ := cells_of hQ hb (Array.getElem?_eq_some_iff.1 hQ).1; have hP := cells_of hP hb (Array.getElem?_eq_some_iff.1 hP).1; have p0 := cell_heap hP 0; have p1 := cell_heap hP 1; have hbel := hbel.trans (hb.mono hbel.size); clear hb) | (go_at_call 76; (with_reducible refine (CS _ hbel).mono ?_); rintro e w3 ⟨rfl, hb⟩; have hQ := cells_of hQ hb (Array.getElem?_eq_some_iff.1 hQ).1; have hP := cells_of hP hb (Array.getElem?_eq_some_iff.1 hP).1; have p0 := cell_heap hP 0; have p1 := cell_heap hP 1; have hbel := hbel.trans (hb.mono hbel.size); clear hb))
    clear CM CS
    refine wp_nameE _ (fun W6 hX => ?_)
    rw [← hX] at hQ hP hbel p0
    clear hX p1
    obtain ⟨b1, o1, rfl, hb1, hg1⟩ := lv_range (h.below hbel).row (k := 0) (by simp)
    simp only [List.getElem_cons_zero] at hg1
    have u1k : W6.cell? ⟨b1, o1, none⟩ = some (.string x.key) := by
      have h9 : W6.cell? ⟨b1, o1 + 0 * 4 + 0, none⟩ = some (.string x.key) := hg1 0 _ rfl
      simpa using h9
    have u1i : W6.cell? ⟨b1, o1 + 2, none⟩ = some (.int .i64 x.idx) := by
      have h9 : W6.cell? ⟨b1, o1 + 0 * 4 + 2, none⟩ = some (.int .i64 x.idx) := hg1 2 _ rfl
      simpa [Nat.add_assoc] using h9
    clear hg1
    obtain ⟨i0, ei0⟩ : ∃ b, (x.idx == 0) = b := ⟨_, rfl⟩
    obtain ⟨i1, ei1⟩ : ∃ b, (x.idx == ct - 1) = b := ⟨_, rfl⟩
    obtain ⟨l1, el1⟩ : ∃ b, lessK x.key key = b := ⟨_, rfl⟩
    obtain ⟨l0, s0⟩ : ∃ b, (x.key.toList == key.toList) = b := ⟨_, rfl⟩
    have s1 : Op.bytesLess x.key.toList key.toList = l1 := by rw [lessK_tl, el1]
    have hs1 : (0 : Int) ≤ ct - 1 := by omega
    have hs2 : ct - 1 ≤ 9223372036854775807 := by omega
    obtain rfl : r = ((i0 && (!l1 && !l0)) || (i1 && l1)) := by
      rw [← HR.out, HEM.out, HSA.out]
      show (true && true && (((x.idx == 0) && lessK key x.key) || ((x.idx == ct - 1) && lessK x.key key))) = _
      rw [lessK_gtr key x.key, ei0, s0, ei1, el1]; rfl
    clear el1
    cases i0 <;> cases l0 <;> cases i1 <;> cases l1
    all_goals (
      go_quiet (fail)
      go_wp2
      go_ret
      exact ⟨by first | rfl | simp, hbel.trans ((drewN_below _ _).mono hbel.size)⟩)
  | x :: y :: zs, hn9, h =>
    obtain rfl : zs = [] := by
      have : zs.length = 0 := by simp only [List.length_cons] at hn2; omega
      exact List.eq_nil_of_length_eq_zero this
    obtain rfl : n = 2 := hn9.symm
    obtain ⟨_, _, _, _, hx0, hx1, _⟩ := HFIT.out x (by simp)
    go_upto_region 9 with (first | (refine wpList_load_mid rfl 25 (.tmp 3) rfl w.heap.size 0 rfl (H32.cells ⟨q, hq⟩) _ (hrow_range (show _ = some (Obj.cells (hrow (⟨q, hq⟩ : H32).1) 25 (0, 0)) from hQ)) Tryd.underlying25 rfl (hash_info (⟨q, hq⟩ : H32)) ?_; rw [show (H32.cells ⟨q, hq⟩).toArray = hrow q from rfl]) | (refine wpList_load_midG 25 (.tmp 3) rfl w.heap.size 0 rfl (H32.cells ⟨q, hq⟩) _ (hrow_range (show _ = some (Obj.cells (hrow (⟨q, hq⟩ : H32).1) 25 (0, 0)) from hQ)) Tryd.underlying25 rfl (hash_info (⟨q, hq⟩ : H32)) (by rfl) ?_; rw [show (H32.cells ⟨q, hq⟩).toArray = hrow q from rfl]) | (go_at_call 36; (with_reducible refine (CM _ hbel).mono ?_); rintro e w2 ⟨rfl, hb⟩; have hQ := cells_of hQ hb (Array.getElem?_eq_some_iff.1 hQ).1; have hP := cells_of hP hb (Array.getElem?_eq_some_iff.1 hP).1; have p0 := cell_heap hP 0; have p1 := cell_heap hP 1; have hbel := hbel.trans (hb.mono hbel.size); clear hb) | (go_at_call 76; (with_reducible refine (CS _ hbel).mono ?_); rintro e w3 ⟨rfl, hb⟩; have hQ := cells_of hQ hb (Array.getElem?_eq_some_iff.1 hQ).1; have hP := cells_of hP hb (Array.getElem?_eq_some_iff.1 hP).1; have p0 := cell_heap hP 0; have p1 := cell_heap hP 1; have hbel := hbel.trans (hb.mono hbel.size); clear hb))
    clear CM CS
    refine wp_nameE _ (fun W6 hX => ?_)
    rw [← hX] at hQ hP hbel p0
    clear hX p1
    obtain ⟨b1, o1, rfl, hb1, hg1⟩ := lv_range (h.below hbel).row (k := 0) (by simp)
    obtain ⟨b2, o2, he2, hb2, hg2⟩ := lv_range (h.below hbel).row (k := 1) (by simp)
    simp only [Option.some.injEq, Addr.mk.injEq, and_true] at he2
    obtain ⟨rfl, rfl⟩ := he2
    simp only [List.getElem_cons_zero, List.getElem_cons_succ] at hg1 hg2
    have u1k : W6.cell? ⟨b1, o1, none⟩ = some (.string x.key) := by
      have h9 : W6.cell? ⟨b1, o1 + 0 * 4 + 0, none⟩ = some (.string x.key) := hg1 0 _ rfl
      simpa using h9
    have u1i : W6.cell? ⟨b1, o1 + 2, none⟩ = some (.int .i64 x.idx) := by
      have h9 : W6.cell? ⟨b1, o1 + 0 * 4 + 2, none⟩ = some (.int .i64 x.idx) := hg1 2 _ rfl
      simpa [Nat.add_assoc] using h9
    have u2k : W6.cell? ⟨b1, o1 + 4, none⟩ = some (.string y.key) := by
      have h9 : W6.cell? ⟨b1, o1 + 1 * 4 + 0, none⟩ = some (.string y.key) := hg2 0 _ rfl
      simpa using h9
    have u2i : W6.cell? ⟨b1, o1 + 6, none⟩ = some (.int .i64 y.idx) := by
      have h9 : W6.cell? ⟨b1, o1 + 1 * 4 + 2, none⟩ = some (.int .i64 y.idx) := hg2 2 _ rfl
      simpa [Nat.add_assoc] using h9
    clear hg1 hg2
    obtain ⟨i0, ei0⟩ : ∃ b, (y.idx == x.idx + 1) = b := ⟨_, rfl⟩
    obtain ⟨l0, el0⟩ : ∃ b, lessK x.key key = b := ⟨_, rfl⟩
    obtain ⟨l1, el1⟩ : ∃ b, lessK y.key key = b := ⟨_, rfl⟩
    obtain ⟨l2, s2⟩ : ∃ b, (y.key.toList == key.toList) = b := ⟨_, rfl⟩
    have s0 : Op.bytesLess x.key.toList key.toList = l0 := by rw [lessK_tl, el0]
    have s1 : Op.bytesLess y.key.toList key.toList = l1 := by rw [lessK_tl, el1]
    have hs1 : (0 : Int) ≤ x.idx + 1 := by omega
    have hs2 : x.idx + 1 ≤ 9223372036854775807 := by omega
    obtain rfl : r = ((i0 && l0) && (!l1 && !l2)) := by
      rw [← HR.out, HEM.out, HSA.out]
      show (true && true && (((y.idx == x.idx + 1) && lessK x.key key) && lessK key y.key)) = _
      rw [lessK_gtr key y.key, ei0, el0, el1, s2]; rfl
    clear el0 el1
    cases i0 <;> cases l0 <;> cases l1 <;> cases l2
    all_goals (
      go_quiet (fail)
      go_wp2
      go_ret
      exact ⟨by first | rfl | simp, hbel.trans ((drewN_below _ _).mono hbel.size)⟩)
set_option maxRecDepth 100000 in
set_option maxHeartbeats 12800000 in
theorem refLacks_any (q : List UInt8) (hq : q.length = 32) (ct : Int) (a : Option Addr) (n cap : Nat) (xs : List LeafV) (key : ByteArray) (w : World) (h : LvsAt w a xs) (hn : xs.length = n) (hnm : n ≤ cap ∧ cap ≤ maxLen) :
    Calls Tryd.prog 45 #[.agg (hrow q), .agg #[.int .i64 ct, .slice a n cap], .string key] w fun e w' => e = .returned (.bool (lacksF q ct xs key)) ∧ Below w.heap.size w w' := by
  have hnM : n ≤ maxLen := Nat.le_trans hnm.1 hnm.2
  have CM := fun W (hb : Below w.heap.size w W) => refMayPf_any ct a n cap xs W (h.below hb) hn hnM
  have HNM := Lib.hid hnm
  have hcap := hnm.1
  have hcm := hnm.2
  unfold maxLen at hcm
  obtain ⟨km, em⟩ : ∃ b, mayPfB ct xs = b := ⟨_, rfl⟩
  simp only [em] at CM
  have HEM := Lib.hid em
  have HN := Lib.hid hn
  obtain ⟨r, hr9⟩ : ∃ r, lacksF q ct xs key = r := ⟨_, rfl⟩
  rw [hr9]
  unfold lacksF at hr9
  have HR := Lib.hid hr9
  clear em hn hr9 hnm hnM
  have hz0 := al2_0 w (.cells (hrow q) 25) (.cells #[.int .i64 ct, .slice a n cap] 46)
  have hz1 := al2_1 w (.cells (hrow q) 25) (.cells #[.int .i64 ct, .slice a n cap] 46)
  have hbA := al2_below w (.cells (hrow q) 25) (.cells #[.int .i64 ct, .slice a n cap] 46)
  go_enter Tryd.func45, Tryd.ntmps45
  go_upto_region 1 with fail
  refine wp_nameE _ (fun W1 hX => ?_)
  have hQ : W1.heap[w.heap.size]? = some (.cells (hrow q) 25 (0, 0)) := by rw [hX]; exact hz0
  have hP : W1.heap[w.heap.size + 1]? = some (.cells #[.int .i64 ct, .slice a n cap] 46 (0, 0)) := by rw [hX]; exact hz1
  have hbel : Below w.heap.size w W1 := by rw [hX]; exact hbA
  clear hX hz0 hz1 hbA
  have p0 : W1.cell? ⟨w.heap.size + 1, 0, none⟩ = some (.int .i64 ct) := cell_heap hP 0
  have p1 : W1.cell? ⟨w.heap.size + 1, 1, none⟩ = some (.slice a n cap) := cell_heap hP 1
  cases km
  · obtain rfl : r = false := by rw [← HR.out, HEM.out]; rfl
    go_wp2_with (first | (refine wpList_load_mid rfl 25 (.tmp 3) rfl w.heap.size 0 rfl (H32.cells ⟨q, hq⟩) _ (hrow_range (show _ = some (Obj.cells (hrow (⟨q, hq⟩ : H32).1) 25 (0, 0)) from hQ)) Tryd.underlying25 rfl (hash_info (⟨q, hq⟩ : H32)) ?_; rw [show (H32.cells ⟨q, hq⟩).toArray = hrow q from rfl]) | (refine wpList_load_midG 25 (.tmp 3) rfl w.heap.size 0 rfl (H32.cells ⟨q, hq⟩) _ (hrow_range (show _ = some (Obj.cells (hrow (⟨q, hq⟩ : H32).1) 25 (0, 0)) from hQ)) Tryd.underlying25 rfl (hash_info (⟨q, hq⟩ : H32)) (by rfl) ?_; rw [show (H32.cells ⟨q, hq⟩).toArray = hrow q from rfl]) | (go_at_call 46; (with_reducible refine (CM _ hbel).mono ?_); rintro e w2 ⟨rfl, hb⟩; have hQ := cells_of hQ hb (Array.getElem?_eq_some_iff.1 hQ).1; have hP := cells_of hP hb (Array.getElem?_eq_some_iff.1 hP).1; have p0 := cell_heap hP 0; have p1 := cell_heap hP 1; have hbel := hbel.trans (hb.mono hbel.size); clear hb))
    go_ret
    exact ⟨by first | rfl | simp, hbel⟩
  obtain ⟨hc0, hc1, hn2⟩ := may_few HEM.out
  rw [HN.out] at hn2
  have hfit := fun x hx => may_leaf HEM.out (x := x) hx
  have HFIT := Lib.hid hfit
  clear hfit
  go_upto_region 4 with (first | (refine wpList_load_mid rfl 25 (.tmp 3) rfl w.heap.size 0 rfl (H32.cells ⟨q, hq⟩) _ (hrow_range (show _ = some (Obj.cells (hrow (⟨q, hq⟩ : H32).1) 25 (0, 0)) from hQ)) Tryd.underlying25 rfl (hash_info (⟨q, hq⟩ : H32)) ?_; rw [show (H32.cells ⟨q, hq⟩).toArray = hrow q from rfl]) | (refine wpList_load_midG 25 (.tmp 3) rfl w.heap.size 0 rfl (H32.cells ⟨q, hq⟩) _ (hrow_range (show _ = some (Obj.cells (hrow (⟨q, hq⟩ : H32).1) 25 (0, 0)) from hQ)) Tryd.underlying25 rfl (hash_info (⟨q, hq⟩ : H32)) (by rfl) ?_; rw [show (H32.cells ⟨q, hq⟩).toArray = hrow q from rfl]) | (go_at_call 46; (with_reducible refine (CM _ hbel).mono ?_); rintro e w2 ⟨rfl, hb⟩; have hQ := cells_of hQ hb (Array.getElem?_eq_some_iff.1 hQ).1; have hP := cells_of hP hb (Array.getElem?_eq_some_iff.1 hP).1; have p0 := cell_heap hP 0; have p1 := cell_heap hP 1; have hbel := hbel.trans (hb.mono hbel.size); clear hb))
  clear CM p0 p1
  go_loopw [7] (fun i wr => ∃ k : Nat, k ≤ n ∧ i = .int .i64 k ∧ Hid ((xs.take k).all (standB q ct) = true) ∧ wr.heap[w.heap.size]? = some (.cells (hrow q) 25 (0, 0)) ∧ wr.heap[w.heap.size + 1]? = some (.cells #[.int .i64 ct, .slice a n cap] 46 (0, 0)) ∧ Below w.heap.size w wr) (fun i _ => n - (intOf i).toNat)
  case atStart => exact ⟨0, Nat.zero_le _, rfl, Lib.hid (by rw [List.take_zero]; rfl), hQ, hP, hbel⟩
  case round =>
    clear hQ hP hbel
    obtain ⟨k, hk, rfl, HA, hQ, hP, hbel⟩ := hrel
    have p1 := cell_heap hP 1
    by_cases hlt : k < n
    · have d1 : decide ((k : Int) < (n : Int)) = true := decide_eq_true (by omega)
      have d1n : decide (k < n) = true := decide_eq_true hlt
      have p0 := cell_heap hP 0
      have hkl : k < xs.length := by rw [HN.out]; exact hlt
      have CS := fun W (hb : Below w.heap.size w W) => stands_any q hq ct _ _ _ _ k W (h.below hb) HN.out HNM.out HEM.out hkl
      have hall := all_takeL (p := standB q ct) hkl
      have hbad := all_badL (p := standB q ct) hkl
      obtain ⟨sb, hsb⟩ : ∃ s, standB q ct xs[k] = s := ⟨_, rfl⟩
      simp only [hsb] at CS hall hbad
      have HALL := Lib.hid hall
      have HBAD := Lib.hid hbad
      clear hsb hall hbad hkl
      cases sb
      · obtain rfl : r = false := by rw [← HR.out, HEM.out, HBAD.out rfl]; rfl
        go_wp2_with (first | (refine wpList_load_mid rfl 25 (.tmp 3) rfl w.heap.size 0 rfl (H32.cells ⟨q, hq⟩) _ (hrow_range (show _ = some (Obj.cells (hrow (⟨q, hq⟩ : H32).1) 25 (0, 0)) from hQ)) Tryd.underlying25 rfl (hash_info (⟨q, hq⟩ : H32)) ?_; rw [show (H32.cells ⟨q, hq⟩).toArray = hrow q from rfl]) | (refine wpList_load_midG 25 (.tmp 3) rfl w.heap.size 0 rfl (H32.cells ⟨q, hq⟩) _ (hrow_range (show _ = some (Obj.cells (hrow (⟨q, hq⟩ : H32).1) 25 (0, 0)) from hQ)) Tryd.underlying25 rfl (hash_info (⟨q, hq⟩ : H32)) (by rfl) ?_; rw [show (H32.cells ⟨q, hq⟩).toArray = hrow q from rfl]) | (go_at_call 80; (with_reducible refine (CS _ hbel).mono ?_); rintro e w3 ⟨rfl, hb⟩; have hQ := cells_of hQ hb (Array.getElem?_eq_some_iff.1 hQ).1; have hP := cells_of hP hb (Array.getElem?_eq_some_iff.1 hP).1; have p0 := cell_heap hP 0; have p1 := cell_heap hP 1; have hbel := hbel.trans (hb.mono hbel.size); clear hb))
        go_ret
        exact ⟨by first | rfl | simp, hbel⟩
      · go_wp2_with (first | (refine wpList_load_mid rfl 25 (.tmp 3) rfl w.heap.size 0 rfl (H32.cells ⟨q, hq⟩) _ (hrow_range (show _ = some (Obj.cells (hrow (⟨q, hq⟩ : H32).1) 25 (0, 0)) from hQ)) Tryd.underlying25 rfl (hash_info (⟨q, hq⟩ : H32)) ?_; rw [show (H32.cells ⟨q, hq⟩).toArray = hrow q from rfl]) | (refine wpList_load_midG 25 (.tmp 3) rfl w.heap.size 0 rfl (H32.cells ⟨q, hq⟩) _ (hrow_range (show _ = some (Obj.cells (hrow (⟨q, hq⟩ : H32).1) 25 (0, 0)) from hQ)) Tryd.underlying25 rfl (hash_info (⟨q, hq⟩ : H32)) (by rfl) ?_; rw [show (H32.cells ⟨q, hq⟩).toArray = hrow q from rfl]) | (go_at_call 80; (with_reducible refine (CS _ hbel).mono ?_); rintro e w3 ⟨rfl, hb⟩; have hQ := cells_of hQ hb (Array.getElem?_eq_some_iff.1 hQ).1; have hP := cells_of hP hb (Array.getElem?_eq_some_iff.1 hP).1; have p0 := cell_heap hP 0; have p1 := cell_heap hP 1; have hbel := hbel.trans (hb.mono hbel.size); clear hb))
        go_roundw
        case rel => exact ⟨k + 1, by omega, by go_num, Lib.hid (by rw [HALL.out, HA.out]; rfl), hQ, hP, hbel⟩
        case measure => (simp [intOf]) <;> omega
    obtain rfl : k = n := by omega
    have d9 : decide ((k : Int) < (k : Int)) = false := decide_eq_false (by omega)
    have d9n : decide (k < k) = false := decide_eq_false (by omega)
    have HSA : Hid (xs.all (standB q ct) = true) := Lib.hid (by rw [← HA.out, List.take_of_length_le (by have := HN.out; omega)])
    clear HA hlt
    have p0 := cell_heap hP 0
    obtain ⟨wo, rfl⟩ : ∃ x, x = wr := ⟨_, rfl⟩
    match xs, HN.out, h with
    | [], hn9, h =>
      obtain rfl : k = 0 := hn9.symm
      go_upto_region 10 with fail
      refine wp_nameE _ (fun W6 hX => ?_)
      rw [← hX] at hQ hP hbel p0
      clear hX
      have hPl := (Array.getElem?_eq_some_iff.1 hP).1
      have hQl := (Array.getElem?_eq_some_iff.1 hQ).1
      by_cases hct : ct = 0
      · have e0 : (ct == 0) = true := beq_iff_eq.2 hct
        have CR := fun W (hb : Below W6.heap.size W6 W) => refRoot_any 0 z32 W rfl
        have hRl := rootF_len 0 z32
        obtain ⟨R0, hR0⟩ : ∃ F, rootF 0 z32 = F := ⟨_, rfl⟩
        rw [hR0] at hRl
        simp only [hR0] at CR
        obtain ⟨sb, hsb⟩ : ∃ s, (q == R0) = s := ⟨_, rfl⟩
        have hEQ := fun V : World => (run_equal_hash V 25 q R0 hq hRl Tryd.underlying25 Tryd.underlying5 (by kernel_rfl) : (Op.equalIn 10000 25 (.agg (hrow q)) (.agg (hrow R0))).run Tryd.prog V = .ok (q == R0) V)
        simp only [hsb] at hEQ
        obtain rfl : r = sb := by
          have h9 := HR.out
          rw [HEM.out] at h9
          rw [← h9, ← hsb, ← hR0]
          show (true && true && ((ct == 0) && (q == rootF 0 z32))) = _
          rw [e0]; rfl
        clear hR0 hsb hct
        refine wp_region_facts [Fact.eq (.pointer (some ⟨w.heap.size + 1, 0, none⟩)), Fact.eq (.int .i64 ct), Fact.eq (.bool true), Fact.eq (.bool true), Fact.eq (.agg (hrow q)), Fact.eq (.agg (hrow z32)), Fact.eq (.agg (hrow R0)), Fact.eq (.bool r), Fact.eq (.bool r), Fact.eq (.bool r)] (by kernel_rfl) (by kernel_rfl) (by kernel_rfl) (by kernel_rfl) (fun x => by simp only [fillFrom, Act.put, List.setIfInBounds_toArray, List.set_cons_succ, List.set_cons_zero]; rfl) ?_ ?_
        · refine ⟨?_, ?_, ?_, ?_, ?_, ?_, ?_, ?_, ?_, ?_, trivial⟩
          · intro x w' hbw hd
            clear hd
            go_wp2_with fail
            exact frPost_mk rfl (by repeat (first | assumption | exact Below.refl _ _ | refine bch ?_ (by assumption) | refine Below.alloc ?_ (by simp) _)) rfl
          · intro x w' hbw hd
            have d0 : x 0 = .pointer (some ⟨w.heap.size + 1, 0, none⟩) := hd 0 rfl
            clear hd
            have hpc := cells_of hP hbw hPl
            have c0 : w'.cell? ⟨w.heap.size + 1, 0, none⟩ = some (.int .i64 ct) := cell_heap hpc 0
            go_wp2_with (first | fail)
            exact frPost_mk rfl (by repeat (first | assumption | exact Below.refl _ _ | refine bch ?_ (by assumption) | refine Below.alloc ?_ (by simp) _)) rfl
          · intro x w' hbw hd
            have d1 : x 1 = .int .i64 ct := hd 1 rfl
            clear hd
            go_wp2_with fail
            exact frPost_mk rfl (by repeat (first | assumption | exact Below.refl _ _ | refine bch ?_ (by assumption) | refine Below.alloc ?_ (by simp) _)) rfl
          · intro x w' hbw hd
            have d2 : x 2 = .bool true := hd 2 rfl
            clear hd
            go_wp2_with fail
            exact frPost_mk rfl (by repeat (first | assumption | exact Below.refl _ _ | refine bch ?_ (by assumption) | refine Below.alloc ?_ (by simp) _)) rfl
          · intro x w' hbw hd
            have d3 : x 3 = .bool true := hd 3 rfl
            clear hd
            have hrg := hrow_range (show w'.heap[w.heap.size]? = some (Obj.cells (hrow (⟨q, hq⟩ : H32).1) 25 (0, 0)) from cells_of hQ hbw hQl)
            go_wp2_with (first | (refine wpList_load_midG 25 (.tmp 3) rfl w.heap.size 0 rfl (H32.cells ⟨q, hq⟩) _ hrg Tryd.underlying25 rfl (hash_info (⟨q, hq⟩ : H32)) (by first | rfl | (simp [Region.wanted, yielded, *]; done)) ?_; rw [show (H32.cells ⟨q, hq⟩).toArray = hrow q from rfl]))
            exact frPost_mk rfl (by repeat (first | assumption | exact Below.refl _ _ | refine bch ?_ (by assumption) | refine Below.alloc ?_ (by simp) _)) rfl
          · intro x w' hbw hd
            have d3 : x 3 = .bool true := hd 3 rfl
            clear hd
            go_wp2_with fail
            exact frPost_mk rfl (by repeat (first | assumption | exact Below.refl _ _ | refine bch ?_ (by assumption) | refine Below.alloc ?_ (by simp) _)) rfl
          · intro x w' hbw hd
            have d3 : x 3 = .bool true := hd 3 rfl
            have d5 : x 5 = .agg (hrow z32) := hd 5 rfl
            clear hd
            have CC := CR w' hbw
            go_wp2_with (first | (go_at_call 17; refine (CC).mono ?_; rintro e wx ⟨rfl, hbx⟩))
            exact frPost_mk rfl (by repeat (first | assumption | exact Below.refl _ _ | refine bch ?_ (by assumption) | refine Below.alloc ?_ (by simp) _)) rfl
          · intro x w' hbw hd
            have d3 : x 3 = .bool true := hd 3 rfl
            have d4 : x 4 = .agg (hrow q) := hd 4 rfl
            have d6 : x 6 = .agg (hrow R0) := hd 6 rfl
            clear hd
            have hE := hEQ w'
            go_wp2_with (first | fail)
            exact frPost_mk rfl (by repeat (first | assumption | exact Below.refl _ _ | refine bch ?_ (by assumption) | refine Below.alloc ?_ (by simp) _)) rfl
          · intro x w' hbw hd
            have d3 : x 3 = .bool true := hd 3 rfl
            have d7 : x 7 = .bool r := hd 7 rfl
            clear hd
            go_wp2_with fail
            exact frPost_mk rfl (by repeat (first | assumption | exact Below.refl _ _ | refine bch ?_ (by assumption) | refine Below.alloc ?_ (by simp) _)) rfl
          · intro x w' hbw hd
            have d8 : x 8 = .bool r := hd 8 rfl
            clear hd
            go_wp2_with fail
            exact frPost_mk rfl (by repeat (first | assumption | exact Below.refl _ _ | refine bch ?_ (by assumption) | refine Below.alloc ?_ (by simp) _)) rfl
        intro x9 w7 hb7 hd
        have d9 : x9 9 = .bool r := hd 9 (by decide)
        clear hd
        simp only [Nat.zero_add, Nat.reduceAdd, d9]
        have hbel := hbel.trans (hb7.mono hbel.size)
        go_wp2
        go_ret
        exact ⟨by first | rfl | simp, hbel⟩
      · have e0 : (ct == 0) = false := beq_eq_false_iff_ne.2 hct
        obtain rfl : r = false := by
          have h9 := HR.out
          rw [← h9]
          show (_ && true && ((ct == 0) && _)) = false
          rw [e0, Bool.false_and, Bool.and_false]
        clear hct
        refine wp_region_facts [Fact.eq (.pointer (some ⟨w.heap.size + 1, 0, none⟩)), Fact.eq (.int .i64 ct), Fact.eq (.bool false), Fact.eq (.bool false), Fact.eq (.tuple #[]), Fact.eq (.tuple #[]), Fact.eq (.tuple #[]), Fact.eq (.tuple #[]), Fact.eq (.bool false), Fact.eq (.bool false)] (by kernel_rfl) (by kernel_rfl) (by kernel_rfl) (by kernel_rfl) (fun x => by simp only [fillFrom, Act.put, List.setIfInBounds_toArray, List.set_cons_succ, List.set_cons_zero]; rfl) ?_ ?_
        · refine ⟨?_, ?_, ?_, ?_, ?_, ?_, ?_, ?_, ?_, ?_, trivial⟩
          · intro x w' hbw hd
            clear hd
            go_wp2_with fail
            exact frPost_mk rfl (by repeat (first | assumption | exact Below.refl _ _ | refine bch ?_ (by assumption) | refine Below.alloc ?_ (by simp) _)) rfl
          · intro x w' hbw hd
            have d0 : x 0 = .pointer (some ⟨w.heap.size + 1, 0, none⟩) := hd 0 rfl
            clear hd
            have hpc := cells_of hP hbw hPl
            have c0 : w'.cell? ⟨w.heap.size + 1, 0, none⟩ = some (.int .i64 ct) := cell_heap hpc 0
            go_wp2_with (first | fail)
            exact frPost_mk rfl (by repeat (first | assumption | exact Below.refl _ _ | refine bch ?_ (by assumption) | refine Below.alloc ?_ (by simp) _)) rfl
          · intro x w' hbw hd
            have d1 : x 1 = .int .i64 ct := hd 1 rfl
            clear hd
            go_wp2_with fail
            exact frPost_mk rfl (by repeat (first | assumption | exact Below.refl _ _ | refine bch ?_ (by assumption) | refine Below.alloc ?_ (by simp) _)) rfl
          · intro x w' hbw hd
            have d2 : x 2 = .bool false := hd 2 rfl
            clear hd
            go_wp2_with fail
            exact frPost_mk rfl (by repeat (first | assumption | exact Below.refl _ _ | refine bch ?_ (by assumption) | refine Below.alloc ?_ (by simp) _)) rfl
          · intro x w' hbw hd
            have d3 : x 3 = .bool false := hd 3 rfl
            clear hd
            go_wp2_with fail
            first | exact frPost_mk rfl (by repeat (first | assumption | exact Below.refl _ _ | refine bch ?_ (by assumption) | refine Below.alloc ?_ (by simp) _)) rfl | exact ⟨rfl, rfl, Below.refl _ _, rfl⟩
          · intro x w' hbw hd
            have d3 : x 3 = .bool false := hd 3 rfl
            clear hd
            go_wp2_with fail
            first | exact frPost_mk rfl (by repeat (first | assumption | exact Below.refl _ _ | refine bch ?_ (by assumption) | refine Below.alloc ?_ (by simp) _)) rfl | exact ⟨rfl, rfl, Below.refl _ _, rfl⟩
          · intro x w' hbw hd
            have d3 : x 3 = .bool false := hd 3 rfl
            have d5 : x 5 = .tuple #[] := hd 5 rfl
            clear hd
            go_wp2_with (first | fail)
            first | exact frPost_mk rfl (by repeat (first | assumption | exact Below.refl _ _ | refine bch ?_ (by assumption) | refine Below.alloc ?_ (by simp) _)) rfl | exact ⟨rfl, rfl, Below.refl _ _, rfl⟩
          · intro x w' hbw hd
            have d3 : x 3 = .bool false := hd 3 rfl
            have d4 : x 4 = .tuple #[] := hd 4 rfl
            have d6 : x 6 = .tuple #[] := hd 6 rfl
            clear hd
            go_wp2_with fail
            first | exact frPost_mk rfl (by repeat (first | assumption | exact Below.refl _ _ | refine bch ?_ (by assumption) | refine Below.alloc ?_ (by simp) _)) rfl | exact ⟨rfl, rfl, Below.refl _ _, rfl⟩
          · intro x w' hbw hd
            have d3 : x 3 = .bool false := hd 3 rfl
            have d7 : x 7 = .tuple #[] := hd 7 rfl
            clear hd
            go_wp2_with fail
            exact frPost_mk rfl (by repeat (first | assumption | exact Below.refl _ _ | refine bch ?_ (by assumption) | refine Below.alloc ?_ (by simp) _)) rfl
          · intro x w' hbw hd
            have d8 : x 8 = .bool false := hd 8 rfl
            clear hd
            go_wp2_with fail
            exact frPost_mk rfl (by repeat (first | assumption | exact Below.refl _ _ | refine bch ?_ (by assumption) | refine Below.alloc ?_ (by simp) _)) rfl
        intro x9 w7 hb7 hd
        have d9 : x9 9 = .bool false := hd 9 (by decide)
        clear hd
        simp only [Nat.zero_add, Nat.reduceAdd, d9]
        have hbel := hbel.trans (hb7.mono hbel.size)
        go_wp2
        go_ret
        exact ⟨by first | rfl | simp, hbel⟩
    | [x], hn9, h =>
      obtain rfl : k = 1 := hn9.symm
      obtain ⟨_, _, _, _, hx0, hx1, _⟩ := HFIT.out x (by simp)
      obtain ⟨b1, o1, rfl, hb1, hg1⟩ := lv_range (h.below hbel).row (k := 0) (by simp)
      have hg1 : wo.rangeAt b1 o1 x.cells := by simpa using hg1
      obtain ⟨i0, ei0⟩ : ∃ b, (x.idx == 0) = b := ⟨_, rfl⟩
      obtain ⟨i1, ei1⟩ : ∃ b, (x.idx == ct - 1) = b := ⟨_, rfl⟩
      obtain ⟨l1, el1⟩ : ∃ b, lessK x.key key = b := ⟨_, rfl⟩
      obtain ⟨l0, s0⟩ : ∃ b, (x.key.toList == key.toList) = b := ⟨_, rfl⟩
      have s1 : Op.bytesLess x.key.toList key.toList = l1 := by rw [lessK_tl, el1]
      have hs1 : (0 : Int) ≤ ct - 1 := by omega
      have hs2 : ct - 1 ≤ 9223372036854775807 := by omega
      obtain rfl : r = ((i0 && (!l1 && !l0)) || (i1 && l1)) := by
        rw [← HR.out, HEM.out, HSA.out]
        show (true && true && (((x.idx == 0) && lessK key x.key) || ((x.idx == ct - 1) && lessK x.key key))) = _
        rw [lessK_gtr key x.key, ei0, s0, ei1, el1]; rfl
      clear el1
      go_upto_region 13 with (first | (refine wpList_load_mid rfl 94 (.tmp 44) rfl b1 _ rfl x.cells _ hg1 Tryd.underlying94 rfl (by rfl) ?_) | (refine wpList_storeRowTo (Z := x.cells.toArray) rfl (.tmp 8) (.tmp 45) 94 rfl (by kernel_rfl) rfl (by rfl) (heap_push _ _ _) rfl (lv_one x) ?_))
      refine wp_nameE _ (fun W4 hX => ?_)
      have hb4 : Below wo.heap.size wo W4 := by rw [hX]; exact below_setRow (Below.alloc (Below.refl _ _) (Nat.le_refl _) _) (Nat.le_refl _) _
      have hx : W4.heap[wo.heap.size]? = some (.cells x.cells.toArray 94 (0, 0)) := by rw [hX]; exact setRow_heap _ _ _ _ _ _ (heap_push _ _ _)
      clear hX
      have hP := cells_of hP hb4 (Array.getElem?_eq_some_iff.1 hP).1
      have hbel := hbel.trans (hb4.mono hbel.size)
      obtain ⟨g4, hg4⟩ : ∃ g, wo.heap.size = g := ⟨_, rfl⟩
      rw [hg4] at hx
      simp only [hg4]
      clear hg4 hb4 hg1 p0 p1 hQ
      have p0 := cell_heap hP 0
      have u0 : W4.cell? ⟨g4, 0, none⟩ = some (.string x.key) := cell_heap hx 0
      have u2 : W4.cell? ⟨g4, 2, none⟩ = some (.int .i64 x.idx) := cell_heap hx 2
      cases i0 <;> cases l0 <;> cases i1 <;> cases l1
      all_goals (
        go_wp2
        go_ret
        exact ⟨by first | rfl | simp, hbel⟩)
    | x :: y :: zs, hn9, h =>
      obtain rfl : zs = [] := by
        have : zs.length = 0 := by simp only [List.length_cons] at hn9; omega
        exact List.eq_nil_of_length_eq_zero this
      obtain rfl : k = 2 := hn9.symm
      obtain ⟨_, _, _, _, hx0, hx1, _⟩ := HFIT.out x (by simp)
      obtain ⟨b1, o1, rfl, hb1, hg1⟩ := lv_range (h.below hbel).row (k := 0) (by simp)
      obtain ⟨b2, o2, he2, hb2, hg2⟩ := lv_range (h.below hbel).row (k := 1) (by simp)
      simp only [Option.some.injEq, Addr.mk.injEq, and_true] at he2
      obtain ⟨rfl, rfl⟩ := he2
      have v0 : wo.cell? ⟨b1, o1, none⟩ = some (.string x.key) := by have h9 := hg1 0 _ rfl; simpa using h9
      have v1 : wo.cell? ⟨b1, o1 + 1, none⟩ = some (.string x.val) := by have h9 := hg1 1 _ rfl; simpa using h9
      have v2 : wo.cell? ⟨b1, o1 + 2, none⟩ = some (.int .i64 x.idx) := by have h9 := hg1 2 _ rfl; simpa using h9
      have v3 : wo.cell? ⟨b1, o1 + 3, none⟩ = some (.slice x.pa x.pn x.pc) := by have h9 := hg1 3 _ rfl; simpa using h9
      have v4 : wo.cell? ⟨b1, o1 + 4, none⟩ = some (.string y.key) := by have h9 := hg2 0 _ rfl; simpa using h9
      have v5 : wo.cell? ⟨b1, o1 + 4 + 1, none⟩ = some (.string y.val) := by have h9 := hg2 1 _ rfl; simpa using h9
      have v6 : wo.cell? ⟨b1, o1 + 4 + 2, none⟩ = some (.int .i64 y.idx) := by have h9 := hg2 2 _ rfl; simpa using h9
      have v7 : wo.cell? ⟨b1, o1 + 4 + 3, none⟩ = some (.slice y.pa y.pn y.pc) := by have h9 := hg2 3 _ rfl; simpa using h9
      clear hg1 hg2
      have hlp : w.heap.size + 1 < wo.heap.size := (Array.getElem?_eq_some_iff.1 hP).1
      have ne1 : w.heap.size ≠ wo.heap.size := by omega
      have ne2 : w.heap.size + 1 ≠ wo.heap.size := by omega
      have ne3 : b1 ≠ wo.heap.size := by have := hbel.size; omega
      have ne6 : w.heap.size + 1 ≠ wo.heap.size + 1 := by omega
      have ne7 : b1 ≠ wo.heap.size + 1 := by have := hbel.size; omega
      have p1 : wo.cell? ⟨w.heap.size + 1, 1, none⟩ = some (.slice (some ⟨b1, o1, none⟩) 2 cap) := cell_heap hP 1
      have pA : ∀ X Y : Obj, ((wo.alloc X).alloc Y).cell? ⟨w.heap.size + 1, 1, none⟩ = some (.slice (some ⟨b1, o1, none⟩) 2 cap) := fun X Y => cell_heap (cells_of hP (al2_below wo X Y) hlp) 1
      have pB : ∀ X : Obj, (wo.alloc X).cell? ⟨w.heap.size + 1, 1, none⟩ = some (.slice (some ⟨b1, o1, none⟩) 2 cap) := fun X => cell_heap (cells_of hP (Below.alloc (Below.refl _ _) (Nat.le_refl _) X) hlp) 1
      go_upto_region 14 with fail
      go_cut [9, 10] from 69 to 94 (fun s t wc => ∃ g0 g1 : Nat, s = .pointer (some ⟨g0, 0, none⟩) ∧ t = .pointer (some ⟨g1, 0, none⟩) ∧ wc.heap[g0]? = some (.cells x.cells.toArray 94 (0, 0)) ∧ wc.heap[g1]? = some (.cells y.cells.toArray 94 (0, 0)) ∧ Below wo.heap.size wo wc)
      case first =>
        go_region
        · go_wp2
          go_meet
          exact ⟨_, _, rfl, rfl, al2_0 _ _ _, al2_1 _ _ _, (al2_below _ _ _).drew⟩
        · go_wp2
          go_meet
          exact ⟨_, _, rfl, rfl, al2_1 _ _ _, al2_0 _ _ _, (al2_below _ _ _).drew⟩
      case rest =>
        obtain ⟨g0, g1, rfl, rfl, hx, hy, hb6⟩ := hcut
        have hbel := hbel.trans (hb6.mono hbel.size)
        clear p0 p1 pA pB hQ hP hb6 ne1 ne2 ne3 ne6 ne7 hlp v0 v1 v2 v3 v4 v5 v6 v7
        have x0 : wc.cell? ⟨g0, 0, none⟩ = some (.string x.key) := cell_heap hx 0
        have x2 : wc.cell? ⟨g0, 2, none⟩ = some (.int .i64 x.idx) := cell_heap hx 2
        have y0 : wc.cell? ⟨g1, 0, none⟩ = some (.string y.key) := cell_heap hy 0
        have y2 : wc.cell? ⟨g1, 2, none⟩ = some (.int .i64 y.idx) := cell_heap hy 2
        obtain ⟨i0, ei0⟩ : ∃ b, (y.idx == x.idx + 1) = b := ⟨_, rfl⟩
        obtain ⟨l0, el0⟩ : ∃ b, lessK x.key key = b := ⟨_, rfl⟩
        obtain ⟨l1, el1⟩ : ∃ b, lessK y.key key = b := ⟨_, rfl⟩
        obtain ⟨l2, s2⟩ : ∃ b, (y.key.toList == key.toList) = b := ⟨_, rfl⟩
        have s0 : Op.bytesLess x.key.toList key.toList = l0 := by rw [lessK_tl, el0]
        have s1 : Op.bytesLess y.key.toList key.toList = l1 := by rw [lessK_tl, el1]
        have hs1 : (0 : Int) ≤ x.idx + 1 := by omega
        have hs2 : x.idx + 1 ≤ 9223372036854775807 := by omega
        obtain rfl : r = ((i0 && l0) && (!l1 && !l2)) := by
          rw [← HR.out, HEM.out, HSA.out]
          show (true && true && (((y.idx == x.idx + 1) && lessK x.key key) && lessK key y.key)) = _
          rw [lessK_gtr key y.key, ei0, el0, el1, s2]; rfl
        clear el0 el1
        cases i0 <;> cases l0 <;> cases l1 <;> cases l2
        all_goals (
          go_wp2
          go_ret
          exact ⟨by first | rfl | simp, hbel⟩)
end Go.Proofs.YtfikbaoiialfeaaDoor
