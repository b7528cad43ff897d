/- Nodes and roots of trees of hashes, the project's and the document's own. -/
import Derived.Test.YtpledhipdiephaaDoorSt3
import Derived.Test.YtpledhipdiephaaDoorT4
import Derived.Test.YtpledhipdiephaaDoorRefSum
import Derived.Test.YtpledhipdiephaaDoorT6
import Derived.WalkKit
import Derived.ProofKit
import Derived.Handy
import Derived.Below
import Derived.Lib.Hide
import Derived.IntWalk
import Derived.Outline
import Derived.WalkLawsBesides
import Derived.WalkSpells
namespace Go.Proofs.YtpledhipdiephaaDoor
open Go.RowKit
attribute [local go_sem] strV
set_option linter.unusedVariables false
def nodeF (q r : List UInt8) : List UInt8 := shaF ([1] ++ q ++ r)
def rvF (n : Int) (q : List UInt8) : List UInt8 := shaF ([2] ++ eightL n ++ q)
def rootF (n : Int) (q : List UInt8) : List UInt8 := if n < 0 ∨ 1073741824 < n then z32 else rvF n q
theorem nodeF_len (q r : List UInt8) : (nodeF q r).length = 32 := shaF_len _
theorem rootF_len (n : Int) (q : List UInt8) : (rootF n q).length = 32 := by unfold rootF; split; rfl; exact shaF_len _
theorem flat3 (a : ByteArray) (q r : List UInt8) : flat [a, ⟨q.toArray⟩, ⟨r.toArray⟩] = a.data.toList ++ q ++ r := by simp [flat]
theorem al3_0 (w : World) (a b c : Obj) : (((w.alloc a).alloc b).alloc c).heap[w.heap.size]? = some a := by
  show (((w.heap.push _).push _).push _)[w.heap.size]? = _
  rw [Array.getElem?_push_lt (by simp; omega), ← Array.getElem?_eq_getElem (by simp; omega)]
  exact al2_0 w a b
theorem al3_1 (w : World) (a b c : Obj) : (((w.alloc a).alloc b).alloc c).heap[w.heap.size + 1]? = some b := by
  show (((w.heap.push _).push _).push _)[w.heap.size + 1]? = _
  rw [Array.getElem?_push_lt (by simp), ← Array.getElem?_eq_getElem (by simp)]
  exact al2_1 w a b
theorem al3_2 (w : World) (a b c : Obj) : (((w.alloc a).alloc b).alloc c).heap[w.heap.size + 2]? = some c := by
  show (((w.heap.push _).push _).push _)[w.heap.size + 2]? = _
  rw [show w.heap.size + 2 = ((w.heap.push a).push b).size by simp, Array.getElem?_push_size]
theorem al3_below (w : World) (a b c : Obj) : Below w.heap.size w (((w.alloc a).alloc b).alloc c) := Below.alloc (Below.alloc (Below.alloc (Below.refl _ _) (Nat.le_refl _) _) (by simp) _) (by simp; omega) _
set_option maxRecDepth 100000 in
set_option maxHeartbeats 6400000 in
theorem node_any (q r : List UInt8) (w : World) (hW : SW w) (hq : q.length = 32) (hr : r.length = 32) :
    Calls Tryd.prog 98 #[.agg (hrow q), .agg (hrow r)] w fun e w' => e = .returned (.agg (hrow (nodeF q r))) ∧ Below w.heap.size w w' := by
  have zq : (hrow q).size = 32 := by rw [hrow_size]; exact hq
  have zr : (hrow r).size = 32 := by rw [hrow_size]; exact hr
  have g0 := al3_0 w (.cells (hrow q) 35) (.cells (hrow r) 35) (.cells #[Value.int .u8 0, Value.int .u8 0, Value.int .u8 0, Value.int .u8 0, Value.int .u8 0, Value.int .u8 0, Value.int .u8 0, Value.int .u8 0, Value.int .u8 0, Value.int .u8 0, Value.int .u8 0, Value.int .u8 0, Value.int .u8 0, Value.int .u8 0, Value.int .u8 0, Value.int .u8 0, Value.int .u8 0, Value.int .u8 0, Value.int .u8 0, Value.int .u8 0, Value.int .u8 0, Value.int .u8 0, Value.int .u8 0, Value.int .u8 0, Value.int .u8 0, Value.int .u8 0, Value.int .u8 0, Value.int .u8 0, Value.int .u8 0, Value.int .u8 0, Value.int .u8 0, Value.int .u8 0] 35)
  have g1 := al3_1 w (.cells (hrow q) 35) (.cells (hrow r) 35) (.cells #[Value.int .u8 0, Value.int .u8 0, Value.int .u8 0, Value.int .u8 0, Value.int .u8 0, Value.int .u8 0, Value.int .u8 0, Value.int .u8 0, Value.int .u8 0, Value.int .u8 0, Value.int .u8 0, Value.int .u8 0, Value.int .u8 0, Value.int .u8 0, Value.int .u8 0, Value.int .u8 0, Value.int .u8 0, Value.int .u8 0, Value.int .u8 0, Value.int .u8 0, Value.int .u8 0, Value.int .u8 0, Value.int .u8 0, Value.int .u8 0, Value.int .u8 0, Value.int .u8 0, Value.int .u8 0, Value.int .u8 0, Value.int .u8 0, Value.int .u8 0, Value.int .u8 0, Value.int .u8 0] 35)
  have g2 := al3_2 w (.cells (hrow q) 35) (.cells (hrow r) 35) (.cells #[Value.int .u8 0, Value.int .u8 0, Value.int .u8 0, Value.int .u8 0, Value.int .u8 0, Value.int .u8 0, Value.int .u8 0, Value.int .u8 0, Value.int .u8 0, Value.int .u8 0, Value.int .u8 0, Value.int .u8 0, Value.int .u8 0, Value.int .u8 0, Value.int .u8 0, Value.int .u8 0, Value.int .u8 0, Value.int .u8 0, Value.int .u8 0, Value.int .u8 0, Value.int .u8 0, Value.int .u8 0, Value.int .u8 0, Value.int .u8 0, Value.int .u8 0, Value.int .u8 0, Value.int .u8 0, Value.int .u8 0, Value.int .u8 0, Value.int .u8 0, Value.int .u8 0, Value.int .u8 0] 35)
  have hbA := al3_below w (.cells (hrow q) 35) (.cells (hrow r) 35) (.cells #[Value.int .u8 0, Value.int .u8 0, Value.int .u8 0, Value.int .u8 0, Value.int .u8 0, Value.int .u8 0, Value.int .u8 0, Value.int .u8 0, Value.int .u8 0, Value.int .u8 0, Value.int .u8 0, Value.int .u8 0, Value.int .u8 0, Value.int .u8 0, Value.int .u8 0, Value.int .u8 0, Value.int .u8 0, Value.int .u8 0, Value.int .u8 0, Value.int .u8 0, Value.int .u8 0, Value.int .u8 0, Value.int .u8 0, Value.int .u8 0, Value.int .u8 0, Value.int .u8 0, Value.int .u8 0, Value.int .u8 0, Value.int .u8 0, Value.int .u8 0, Value.int .u8 0, Value.int .u8 0] 35)
  go_enter Tryd.func98, Tryd.ntmps98
  go_upto_region 1 with fail
  refine wp_nameE _ (fun W1 hX => ?_)
  have y0 : W1.heap[w.heap.size]? = some (.cells (hrow q) 35 (0, 0)) := by rw [hX]; exact g0
  have y1 : W1.heap[w.heap.size + 1]? = some (.cells (hrow r) 35 (0, 0)) := by rw [hX]; exact g1
  have y9 : W1.heap[w.heap.size + 2]? = some (.cells #[Value.int .u8 0, Value.int .u8 0, Value.int .u8 0, Value.int .u8 0, Value.int .u8 0, Value.int .u8 0, Value.int .u8 0, Value.int .u8 0, Value.int .u8 0, Value.int .u8 0, Value.int .u8 0, Value.int .u8 0, Value.int .u8 0, Value.int .u8 0, Value.int .u8 0, Value.int .u8 0, Value.int .u8 0, Value.int .u8 0, Value.int .u8 0, Value.int .u8 0, Value.int .u8 0, Value.int .u8 0, Value.int .u8 0, Value.int .u8 0, Value.int .u8 0, Value.int .u8 0, Value.int .u8 0, Value.int .u8 0, Value.int .u8 0, Value.int .u8 0, Value.int .u8 0, Value.int .u8 0] 35 (0, 0)) := by rw [hX]; exact g2
  have hbel : Below w.heap.size w W1 := by rw [hX]; exact hbA
  have hW := hW.below hbel
  clear hX g0 g1 g2 hbA
  have hy9 : w.heap.size + 2 < W1.heap.size := (Array.getElem?_eq_some_iff.1 y9).1
  refine wp_region_facts_tail 6 rfl [Fact.eq (.agg (hrow q)), Fact.eq (.string ⟨q.toArray⟩), Fact.eq (.agg (hrow r)), Fact.eq (.string ⟨r.toArray⟩), Fact.row (3) ([.string ⟨#[1]⟩, .string ⟨q.toArray⟩, .string ⟨r.toArray⟩]), Fact.eq (.agg (hrow (nodeF q r)))] (by kernel_rfl) (by kernel_rfl) (by kernel_rfl) (by kernel_rfl) (by kernel_rfl) (fun x => by simp only [List.take_succ_cons, List.take_zero, fillFrom, Act.put, List.setIfInBounds_toArray, List.set_cons_succ, List.set_cons_zero]; rfl) ?_ ?_
  · refine ⟨?_, ?_, ?_, ?_, ?_, ?_, trivial⟩
    · intro x w' hbw hd
      clear hd
      have hgc := cells_of y0 hbw (by omega)
      go_wp2_with (first | (refine wpList_loadRow rfl (.tmp 2) 35 rfl Tryd.underlying35 (by rw [zq]; kernel_rfl) rfl hgc ?_))
      exact frPost_mk rfl (by repeat (first | assumption | exact Below.refl _ _ | refine bch ?_ (by assumption) | refine Below.alloc ?_ (by simp) _)) rfl
    · intro x w' hbw hd
      have d0 : x 0 = .agg (hrow q) := hd 0 rfl
      clear hd
      have CC := shaText_any q w' hq
      go_wp2_with (first | (go_at_call 85; refine CC.mono ?_; rintro e wx ⟨rfl, hbx⟩))
      exact frPost_mk rfl (by repeat (first | assumption | exact Below.refl _ _ | refine bch ?_ (by assumption) | refine Below.alloc ?_ (by simp) _)) rfl
    · intro x w' hbw hd
      clear hd
      have hgc := cells_of y1 hbw (by omega)
      go_wp2_with (first | (refine wpList_loadRow rfl (.tmp 3) 35 rfl Tryd.underlying35 (by rw [zr]; kernel_rfl) rfl hgc ?_))
      exact frPost_mk rfl (by repeat (first | assumption | exact Below.refl _ _ | refine bch ?_ (by assumption) | refine Below.alloc ?_ (by simp) _)) rfl
    · intro x w' hbw hd
      have d2 : x 2 = .agg (hrow r) := hd 2 rfl
      clear hd
      have CC := shaText_any r w' hr
      go_wp2_with (first | (go_at_call 85; refine CC.mono ?_; rintro e wx ⟨rfl, hbx⟩))
      exact frPost_mk rfl (by repeat (first | assumption | exact Below.refl _ _ | refine bch ?_ (by assumption) | refine Below.alloc ?_ (by simp) _)) rfl
    · intro x w' hbw hd
      have d1 : x 1 = .string ⟨q.toArray⟩ := hd 1 rfl
      have d3 : x 3 = .string ⟨r.toArray⟩ := hd 3 rfl
      clear hd
      go_wp2_with fail
      exact frPost_mk rfl (by repeat (first | assumption | exact Below.refl _ _ | refine bch ?_ (by assumption) | refine Below.alloc ?_ (by simp) _)) ⟨_, _, rfl, RowAt.lit3 rfl rfl⟩
    · intro x w' hbw hd
      obtain ⟨a4, cap4, d4, r4⟩ := (show (Fact.row (3) ([.string ⟨#[1]⟩, .string ⟨q.toArray⟩, .string ⟨r.toArray⟩])).holds (x 4) w' from hd 4 rfl)
      clear hd
      have CC := sum_any a4 3 cap4 [⟨#[1]⟩, ⟨q.toArray⟩, ⟨r.toArray⟩] w' (show RowAt w' a4 (([⟨#[1]⟩, ⟨q.toArray⟩, ⟨r.toArray⟩] : List ByteArray).flatMap sval) from r4) rfl (hW.below hbw) (by rw [flat3]; simp; omega) (by unfold maxLen; omega)
      rw [flat3] at CC
      go_wp2_with (first | (go_at_call 83; refine CC.mono ?_; rintro e wx ⟨rfl, hbx⟩))
      exact frPost_mk rfl (by repeat (first | assumption | exact Below.refl _ _ | refine bch ?_ (by assumption) | refine Below.alloc ?_ (by simp) _)) rfl
  · intro x w' hbw hall
    have hf : x 5 = .agg (hrow (nodeF q r)) := hall 5 (by decide)
    clear hall
    simp only [hf, List.drop_succ_cons, List.drop_zero]
    have hl : (nodeF q r).length = 32 := nodeF_len _ _
    have hsz : (hrow (nodeF q r)).size = 32 := by rw [hrow_size]; exact hl
    have hone := hrow_one (nodeF q r)
    have y9 := cells_of y9 hbw hy9
    have hbel := hbel.trans (hbw.mono hbel.size)
    go_wp2_with (refine wpList_storeRowTo rfl (.tmp 4) (.tmp 10) 35 rfl (by rw [hsz]; kernel_rfl) rfl rfl y9 (by rw [hsz]; rfl) hone ?_)
    refine bodyPost_ret (v := .agg (hrow (nodeF q r))) ?_ rfl ?_
    · simp [results, Tryd.results98, asAddr]
      exact run_loadVar_row _ _ 35 35 _ (0, 0) _ (setRow_heap _ _ _ _ _ _ y9) Tryd.underlying35 rfl (by rw [hsz]; kernel_rfl)
    exact ⟨rfl, below_setRow hbel (by omega) _⟩
set_option maxRecDepth 100000 in
set_option maxHeartbeats 6400000 in
theorem root_any (n : Int) (q : List UInt8) (w : World) (hW : SW w) (hq : q.length = 32) :
    Calls Tryd.prog 58 #[.int .i64 n, .agg (hrow q)] w fun e w' => e = .returned (.agg (hrow (rootF n q))) ∧ Below w.heap.size w w' := by
  have zq : (hrow q).size = 32 := by rw [hrow_size]; exact hq
  have g0 := al2_0 w (.cells (hrow q) 35) (.cells #[Value.int .u8 0, Value.int .u8 0, Value.int .u8 0, Value.int .u8 0, Value.int .u8 0, Value.int .u8 0, Value.int .u8 0, Value.int .u8 0, Value.int .u8 0, Value.int .u8 0, Value.int .u8 0, Value.int .u8 0, Value.int .u8 0, Value.int .u8 0, Value.int .u8 0, Value.int .u8 0, Value.int .u8 0, Value.int .u8 0, Value.int .u8 0, Value.int .u8 0, Value.int .u8 0, Value.int .u8 0, Value.int .u8 0, Value.int .u8 0, Value.int .u8 0, Value.int .u8 0, Value.int .u8 0, Value.int .u8 0, Value.int .u8 0, Value.int .u8 0, Value.int .u8 0, Value.int .u8 0] 35)
  have g1 := al2_1 w (.cells (hrow q) 35) (.cells #[Value.int .u8 0, Value.int .u8 0, Value.int .u8 0, Value.int .u8 0, Value.int .u8 0, Value.int .u8 0, Value.int .u8 0, Value.int .u8 0, Value.int .u8 0, Value.int .u8 0, Value.int .u8 0, Value.int .u8 0, Value.int .u8 0, Value.int .u8 0, Value.int .u8 0, Value.int .u8 0, Value.int .u8 0, Value.int .u8 0, Value.int .u8 0, Value.int .u8 0, Value.int .u8 0, Value.int .u8 0, Value.int .u8 0, Value.int .u8 0, Value.int .u8 0, Value.int .u8 0, Value.int .u8 0, Value.int .u8 0, Value.int .u8 0, Value.int .u8 0, Value.int .u8 0, Value.int .u8 0] 35)
  have hbA := al2_below w (.cells (hrow q) 35) (.cells #[Value.int .u8 0, Value.int .u8 0, Value.int .u8 0, Value.int .u8 0, Value.int .u8 0, Value.int .u8 0, Value.int .u8 0, Value.int .u8 0, Value.int .u8 0, Value.int .u8 0, Value.int .u8 0, Value.int .u8 0, Value.int .u8 0, Value.int .u8 0, Value.int .u8 0, Value.int .u8 0, Value.int .u8 0, Value.int .u8 0, Value.int .u8 0, Value.int .u8 0, Value.int .u8 0, Value.int .u8 0, Value.int .u8 0, Value.int .u8 0, Value.int .u8 0, Value.int .u8 0, Value.int .u8 0, Value.int .u8 0, Value.int .u8 0, Value.int .u8 0, Value.int .u8 0, Value.int .u8 0] 35)
  go_enter Tryd.func58, Tryd.ntmps58
  go_upto_region 1 with fail
  refine wp_nameE _ (fun W1 hX => ?_)
  have y0 : W1.heap[w.heap.size]? = some (.cells (hrow q) 35 (0, 0)) := by rw [hX]; exact g0
  have y9 : W1.heap[w.heap.size + 1]? = some (.cells #[Value.int .u8 0, Value.int .u8 0, Value.int .u8 0, Value.int .u8 0, Value.int .u8 0, Value.int .u8 0, Value.int .u8 0, Value.int .u8 0, Value.int .u8 0, Value.int .u8 0, Value.int .u8 0, Value.int .u8 0, Value.int .u8 0, Value.int .u8 0, Value.int .u8 0, Value.int .u8 0, Value.int .u8 0, Value.int .u8 0, Value.int .u8 0, Value.int .u8 0, Value.int .u8 0, Value.int .u8 0, Value.int .u8 0, Value.int .u8 0, Value.int .u8 0, Value.int .u8 0, Value.int .u8 0, Value.int .u8 0, Value.int .u8 0, Value.int .u8 0, Value.int .u8 0, Value.int .u8 0] 35 (0, 0)) := by rw [hX]; exact g1
  have hbel : Below w.heap.size w W1 := by rw [hX]; exact hbA
  clear hX g0 g1 hbA
  have hy9 : w.heap.size + 1 < W1.heap.size := (Array.getElem?_eq_some_iff.1 y9).1
  have hz : (hrow z32).size = 32 := by rfl
  have hzone := hrow_one z32
  by_cases c1 : n < 0
  · have d1 : decide (n < 0) = true := decide_eq_true c1
    have HR : Hid (rootF n q = z32) := Lib.hid (by unfold rootF; rw [if_pos (.inl c1)])
    go_wp2_with (refine wpList_storeRowTo (Z := hrow z32) rfl (.tmp 4) (.tmp 11) 35 rfl (by rw [hz]; kernel_rfl) rfl (by rfl) y9 (by rw [hz]; rfl) hzone ?_)
    refine bodyPost_ret (v := .agg (hrow z32)) ?_ rfl ?_
    · simp [results, Tryd.results58, asAddr]
      exact run_loadVar_row _ _ 35 35 _ (0, 0) _ (setRow_heap _ _ _ _ _ _ y9) Tryd.underlying35 rfl (by rw [hz]; kernel_rfl)
    exact ⟨by rw [HR.out], below_setRow hbel (by omega) _⟩
  have d1 : decide (n < 0) = false := decide_eq_false c1
  by_cases c2 : 1073741824 < n
  · have d2 : decide (1073741824 < n) = true := decide_eq_true c2
    have HR : Hid (rootF n q = z32) := Lib.hid (by unfold rootF; rw [if_pos (.inr c2)])
    go_wp2_with (refine wpList_storeRowTo (Z := hrow z32) rfl (.tmp 4) (.tmp 11) 35 rfl (by rw [hz]; kernel_rfl) rfl (by rfl) y9 (by rw [hz]; rfl) hzone ?_)
    refine bodyPost_ret (v := .agg (hrow z32)) ?_ rfl ?_
    · simp [results, Tryd.results58, asAddr]
      exact run_loadVar_row _ _ 35 35 _ (0, 0) _ (setRow_heap _ _ _ _ _ _ y9) Tryd.underlying35 rfl (by rw [hz]; kernel_rfl)
    exact ⟨by rw [HR.out], below_setRow hbel (by omega) _⟩
  have d2 : decide (1073741824 < n) = false := decide_eq_false c2
  have HR : Hid (rootF n q = rvF n q) := Lib.hid (by unfold rootF; rw [if_neg (by omega)])
  have hW := hW.below hbel
  go_upto_region 3 with fail
  refine wp_region_facts_tail 6 rfl [Fact.eq (.int .i64 n), Fact.eq (.string ⟨(eightL n).toArray⟩), Fact.eq (.agg (hrow q)), Fact.eq (.string ⟨q.toArray⟩), Fact.row (3) ([.string ⟨#[2]⟩, .string ⟨(eightL n).toArray⟩, .string ⟨q.toArray⟩]), Fact.eq (.agg (hrow (rvF n q)))] (by kernel_rfl) (by kernel_rfl) (by kernel_rfl) (by kernel_rfl) (by kernel_rfl) (fun x => by simp only [List.take_succ_cons, List.take_zero, fillFrom, Act.put, List.setIfInBounds_toArray, List.set_cons_succ, List.set_cons_zero]; rfl) ?_ ?_
  · refine ⟨?_, ?_, ?_, ?_, ?_, ?_, trivial⟩
    · intro x w' hbw hd
      clear hd
      go_wp2_with fail
      exact frPost_mk rfl (by repeat (first | assumption | exact Below.refl _ _ | refine bch ?_ (by assumption) | refine Below.alloc ?_ (by simp) _)) rfl
    · intro x w' hbw hd
      have d0 : x 0 = .int .i64 n := hd 0 rfl
      clear hd
      have CC := eight_any n w'
      unfold strV at CC
      go_wp2_with (first | (go_at_call 84; refine CC.mono ?_; rintro e wx ⟨rfl, hbx⟩))
      exact frPost_mk rfl (by repeat (first | assumption | exact Below.refl _ _ | refine bch ?_ (by assumption) | refine Below.alloc ?_ (by simp) _)) rfl
    · intro x w' hbw hd
      clear hd
      have hgc := cells_of y0 hbw (by omega)
      go_wp2_with (first | (refine wpList_loadRow rfl (.tmp 3) 35 rfl Tryd.underlying35 (by rw [zq]; kernel_rfl) rfl hgc ?_))
      exact frPost_mk rfl (by repeat (first | assumption | exact Below.refl _ _ | refine bch ?_ (by assumption) | refine Below.alloc ?_ (by simp) _)) rfl
    · intro x w' hbw hd
      have d2 : x 2 = .agg (hrow q) := hd 2 rfl
      clear hd
      have CC := shaText_any q w' hq
      go_wp2_with (first | (go_at_call 85; refine CC.mono ?_; rintro e wx ⟨rfl, hbx⟩))
      exact frPost_mk rfl (by repeat (first | assumption | exact Below.refl _ _ | refine bch ?_ (by assumption) | refine Below.alloc ?_ (by simp) _)) rfl
    · intro x w' hbw hd
      have d1 : x 1 = .string ⟨(eightL n).toArray⟩ := hd 1 rfl
      have d3 : x 3 = .string ⟨q.toArray⟩ := hd 3 rfl
      clear hd
      go_wp2_with fail
      exact frPost_mk rfl (by repeat (first | assumption | exact Below.refl _ _ | refine bch ?_ (by assumption) | refine Below.alloc ?_ (by simp) _)) ⟨_, _, rfl, RowAt.lit3 rfl rfl⟩
    · intro x w' hbw hd
      obtain ⟨a4, cap4, d4, r4⟩ := (show (Fact.row (3) ([.string ⟨#[2]⟩, .string ⟨(eightL n).toArray⟩, .string ⟨q.toArray⟩])).holds (x 4) w' from hd 4 rfl)
      clear hd
      have CC := sum_any a4 3 cap4 [⟨#[2]⟩, ⟨(eightL n).toArray⟩, ⟨q.toArray⟩] w' (show RowAt w' a4 (([⟨#[2]⟩, ⟨(eightL n).toArray⟩, ⟨q.toArray⟩] : List ByteArray).flatMap sval) from r4) rfl (hW.below hbw) (by rw [flat3]; have := eightL_le n; simp; omega) (by unfold maxLen; omega)
      rw [flat3, show shaF ((⟨#[2]⟩ : ByteArray).data.toList ++ eightL n ++ q) = rvF n q from rfl] at CC
      go_wp2_with (first | (go_at_call 83; refine CC.mono ?_; rintro e wx ⟨rfl, hbx⟩))
      exact frPost_mk rfl (by repeat (first | assumption | exact Below.refl _ _ | refine bch ?_ (by assumption) | refine Below.alloc ?_ (by simp) _)) rfl
  · intro x w' hbw hall
    have hf : x 5 = .agg (hrow (rvF n q)) := hall 5 (by decide)
    clear hall
    simp only [hf, List.drop_succ_cons, List.drop_zero]
    have hl : (rvF n q).length = 32 := shaF_len _
    have hsz : (hrow (rvF n q)).size = 32 := by rw [hrow_size]; exact hl
    have hone := hrow_one (rvF n q)
    have y9 := cells_of y9 hbw hy9
    have hbel := hbel.trans (hbw.mono hbel.size)
    go_wp2_with (refine wpList_storeRowTo rfl (.tmp 4) (.tmp 17) 35 rfl (by rw [hsz]; kernel_rfl) rfl rfl y9 (by rw [hsz]; rfl) hone ?_)
    refine bodyPost_ret (v := .agg (hrow (rvF n q))) ?_ rfl ?_
    · simp [results, Tryd.results58, asAddr]
      exact run_loadVar_row _ _ 35 35 _ (0, 0) _ (setRow_heap _ _ _ _ _ _ y9) Tryd.underlying35 rfl (by rw [hsz]; kernel_rfl)
    exact ⟨by rw [HR.out], below_setRow hbel (by omega) _⟩
set_option maxRecDepth 100000 in
set_option maxHeartbeats 6400000 in
theorem refRoot_any (n : Int) (q : List UInt8) (w : World) (hq : q.length = 32) :
    Calls Tryd.prog 61 #[.int .i64 n, .agg (hrow q)] w fun e w' => e = .returned (.agg (hrow (rootF n q))) ∧ Below w.heap.size w w' := by
  have zq : (hrow q).size = 32 := by rw [hrow_size]; exact hq
  have g0 := al2_0 w (.cells (hrow q) 35) (.cells #[Value.int .u8 0, Value.int .u8 0, Value.int .u8 0, Value.int .u8 0, Value.int .u8 0, Value.int .u8 0, Value.int .u8 0, Value.int .u8 0, Value.int .u8 0, Value.int .u8 0, Value.int .u8 0, Value.int .u8 0, Value.int .u8 0, Value.int .u8 0, Value.int .u8 0, Value.int .u8 0, Value.int .u8 0, Value.int .u8 0, Value.int .u8 0, Value.int .u8 0, Value.int .u8 0, Value.int .u8 0, Value.int .u8 0, Value.int .u8 0, Value.int .u8 0, Value.int .u8 0, Value.int .u8 0, Value.int .u8 0, Value.int .u8 0, Value.int .u8 0, Value.int .u8 0, Value.int .u8 0] 35)
  have g1 := al2_1 w (.cells (hrow q) 35) (.cells #[Value.int .u8 0, Value.int .u8 0, Value.int .u8 0, Value.int .u8 0, Value.int .u8 0, Value.int .u8 0, Value.int .u8 0, Value.int .u8 0, Value.int .u8 0, Value.int .u8 0, Value.int .u8 0, Value.int .u8 0, Value.int .u8 0, Value.int .u8 0, Value.int .u8 0, Value.int .u8 0, Value.int .u8 0, Value.int .u8 0, Value.int .u8 0, Value.int .u8 0, Value.int .u8 0, Value.int .u8 0, Value.int .u8 0, Value.int .u8 0, Value.int .u8 0, Value.int .u8 0, Value.int .u8 0, Value.int .u8 0, Value.int .u8 0, Value.int .u8 0, Value.int .u8 0, Value.int .u8 0] 35)
  have hbA := al2_below w (.cells (hrow q) 35) (.cells #[Value.int .u8 0, Value.int .u8 0, Value.int .u8 0, Value.int .u8 0, Value.int .u8 0, Value.int .u8 0, Value.int .u8 0, Value.int .u8 0, Value.int .u8 0, Value.int .u8 0, Value.int .u8 0, Value.int .u8 0, Value.int .u8 0, Value.int .u8 0, Value.int .u8 0, Value.int .u8 0, Value.int .u8 0, Value.int .u8 0, Value.int .u8 0, Value.int .u8 0, Value.int .u8 0, Value.int .u8 0, Value.int .u8 0, Value.int .u8 0, Value.int .u8 0, Value.int .u8 0, Value.int .u8 0, Value.int .u8 0, Value.int .u8 0, Value.int .u8 0, Value.int .u8 0, Value.int .u8 0] 35)
  go_enter Tryd.func61, Tryd.ntmps61
  go_upto_region 1 with fail
  refine wp_nameE _ (fun W1 hX => ?_)
  have y0 : W1.heap[w.heap.size]? = some (.cells (hrow q) 35 (0, 0)) := by rw [hX]; exact g0
  have y9 : W1.heap[w.heap.size + 1]? = some (.cells #[Value.int .u8 0, Value.int .u8 0, Value.int .u8 0, Value.int .u8 0, Value.int .u8 0, Value.int .u8 0, Value.int .u8 0, Value.int .u8 0, Value.int .u8 0, Value.int .u8 0, Value.int .u8 0, Value.int .u8 0, Value.int .u8 0, Value.int .u8 0, Value.int .u8 0, Value.int .u8 0, Value.int .u8 0, Value.int .u8 0, Value.int .u8 0, Value.int .u8 0, Value.int .u8 0, Value.int .u8 0, Value.int .u8 0, Value.int .u8 0, Value.int .u8 0, Value.int .u8 0, Value.int .u8 0, Value.int .u8 0, Value.int .u8 0, Value.int .u8 0, Value.int .u8 0, Value.int .u8 0] 35 (0, 0)) := by rw [hX]; exact g1
  have hbel : Below w.heap.size w W1 := by rw [hX]; exact hbA
  clear hX g0 g1 hbA
  have hy9 : w.heap.size + 1 < W1.heap.size := (Array.getElem?_eq_some_iff.1 y9).1
  have hz : (hrow z32).size = 32 := by rfl
  have hzone := hrow_one z32
  by_cases c1 : n < 0
  · have d1 : decide (n < 0) = true := decide_eq_true c1
    have HR : Hid (rootF n q = z32) := Lib.hid (by unfold rootF; rw [if_pos (.inl c1)])
    go_wp2_with (refine wpList_storeRowTo (Z := hrow z32) rfl (.tmp 4) (.tmp 11) 35 rfl (by rw [hz]; kernel_rfl) rfl (by rfl) y9 (by rw [hz]; rfl) hzone ?_)
    refine bodyPost_ret (v := .agg (hrow z32)) ?_ rfl ?_
    · simp [results, Tryd.results61, asAddr]
      exact run_loadVar_row _ _ 35 35 _ (0, 0) _ (setRow_heap _ _ _ _ _ _ y9) Tryd.underlying35 rfl (by rw [hz]; kernel_rfl)
    exact ⟨by rw [HR.out], below_setRow hbel (by omega) _⟩
  have d1 : decide (n < 0) = false := decide_eq_false c1
  by_cases c2 : 1073741824 < n
  · have d2 : decide (1073741824 < n) = true := decide_eq_true c2
    have HR : Hid (rootF n q = z32) := Lib.hid (by unfold rootF; rw [if_pos (.inr c2)])
    go_wp2_with (refine wpList_storeRowTo (Z := hrow z32) rfl (.tmp 4) (.tmp 11) 35 rfl (by rw [hz]; kernel_rfl) rfl (by rfl) y9 (by rw [hz]; rfl) hzone ?_)
    refine bodyPost_ret (v := .agg (hrow z32)) ?_ rfl ?_
    · simp [results, Tryd.results61, asAddr]
      exact run_loadVar_row _ _ 35 35 _ (0, 0) _ (setRow_heap _ _ _ _ _ _ y9) Tryd.underlying35 rfl (by rw [hz]; kernel_rfl)
    exact ⟨by rw [HR.out], below_setRow hbel (by omega) _⟩
  have d2 : decide (1073741824 < n) = false := decide_eq_false c2
  have HR : Hid (rootF n q = rvF n q) := Lib.hid (by unfold rootF; rw [if_neg (by omega)])
  obtain ⟨E, hE⟩ : ∃ E : ByteArray, (⟨(eightL n).toArray⟩ : ByteArray) = E := ⟨_, rfl⟩
  obtain ⟨X, hX⟩ : ∃ X : ByteArray, (⟨q.toArray⟩ : ByteArray) = X := ⟨_, rfl⟩
  have hEs : E.size ≤ 8 := by rw [← hE]; exact eightL_le n
  have hXs : X.size = 32 := by rw [← hX]; exact hq
  have h1s : (⟨#[2]⟩ : ByteArray).size = 1 := rfl
  have hcat1 : ¬ 9223372036854775807 < (⟨#[2]⟩ : ByteArray).size + E.size := by omega
  have hcat2 : ¬ 9223372036854775807 < ((⟨#[2]⟩ : ByteArray) ++ E).size + X.size := by rw [ByteArray.size_append]; omega
  have hcat3 : ¬ 9223372036854775807 < (⟨#[2]⟩ : ByteArray).size + E.size + X.size := by omega
  have hcat4 : ¬ 9223372036854775807 < 1 + E.size + X.size := by omega
  clear h1s
  go_upto_region 3 with fail
  refine wp_region_facts_tail 7 rfl [Fact.eq (.int .i64 n), Fact.eq (.string E), Fact.eq (.string ((⟨#[2]⟩ : ByteArray) ++ E)), Fact.eq (.agg (hrow q)), Fact.eq (.string X), Fact.eq (.string (((⟨#[2]⟩ : ByteArray) ++ E) ++ X)), Fact.eq (.agg (hrow (rvF n q)))] (by kernel_rfl) (by kernel_rfl) (by kernel_rfl) (by kernel_rfl) (by kernel_rfl) (fun x => by simp only [List.take_succ_cons, List.take_zero, fillFrom, Act.put, List.setIfInBounds_toArray, List.set_cons_succ, List.set_cons_zero]; rfl) ?_ ?_
  · refine ⟨?_, ?_, ?_, ?_, ?_, ?_, ?_, trivial⟩
    · intro x w' hbw hd
      clear hd
      go_wp2_with fail
      exact frPost_mk rfl (by repeat (first | assumption | exact Below.refl _ _ | refine bch ?_ (by assumption) | refine Below.alloc ?_ (by simp) _)) rfl
    · intro x w' hbw hd
      have d0 : x 0 = .int .i64 n := hd 0 rfl
      clear hd
      have CC := refEight_any n w'
      unfold strV at CC
      rw [hE] at CC
      go_wp2_with (first | (go_at_call 88; refine CC.mono ?_; rintro e wx ⟨rfl, hbx⟩))
      exact frPost_mk rfl (by repeat (first | assumption | exact Below.refl _ _ | refine bch ?_ (by assumption) | refine Below.alloc ?_ (by simp) _)) rfl
    · intro x w' hbw hd
      have d1 : x 1 = .string E := hd 1 rfl
      clear hd
      go_wp2_with fail
      exact frPost_mk rfl (by repeat (first | assumption | exact Below.refl _ _ | refine bch ?_ (by assumption) | refine Below.alloc ?_ (by simp) _)) rfl
    · intro x w' hbw hd
      clear hd
      have hgc := cells_of y0 hbw (by omega)
      go_wp2_with (first | (refine wpList_loadRow rfl (.tmp 3) 35 rfl Tryd.underlying35 (by rw [zq]; kernel_rfl) rfl hgc ?_))
      exact frPost_mk rfl (by repeat (first | assumption | exact Below.refl _ _ | refine bch ?_ (by assumption) | refine Below.alloc ?_ (by simp) _)) rfl
    · intro x w' hbw hd
      have d3 : x 3 = .agg (hrow q) := hd 3 rfl
      clear hd
      have CC := refText_any w' q hq
      rw [hX] at CC
      go_wp2_with (first | (go_at_call 89; refine CC.mono ?_; rintro e wx ⟨rfl, hbx⟩))
      exact frPost_mk rfl (by repeat (first | assumption | exact Below.refl _ _ | refine bch ?_ (by assumption) | refine Below.alloc ?_ (by simp) _)) rfl
    · intro x w' hbw hd
      have d2 : x 2 = .string ((⟨#[2]⟩ : ByteArray) ++ E) := hd 2 rfl
      have d4 : x 4 = .string X := hd 4 rfl
      clear hd
      go_wp2_with fail
      exact frPost_mk rfl (by repeat (first | assumption | exact Below.refl _ _ | refine bch ?_ (by assumption) | refine Below.alloc ?_ (by simp) _)) rfl
    · intro x w' hbw hd
      have d5 : x 5 = .string (((⟨#[2]⟩ : ByteArray) ++ E) ++ X) := hd 5 rfl
      clear hd
      have CC := refSum_any (((⟨#[2]⟩ : ByteArray) ++ E) ++ X) w' (by rw [ByteArray.size_append, ByteArray.size_append, show (⟨#[2]⟩ : ByteArray).size = 1 from rfl]; omega)
      rw [show (((⟨#[2]⟩ : ByteArray) ++ E) ++ X : ByteArray).data.toList = [2] ++ eightL n ++ q by rw [← hE, ← hX]; simp, show shaF ([2] ++ eightL n ++ q) = rvF n q from rfl] at CC
      go_wp2_with (first | (go_at_call 87; refine CC.mono ?_; rintro e wx ⟨rfl, hbx⟩))
      exact frPost_mk rfl (by repeat (first | assumption | exact Below.refl _ _ | refine bch ?_ (by assumption) | refine Below.alloc ?_ (by simp) _)) rfl
  · intro x w' hbw hall
    have hf : x 6 = .agg (hrow (rvF n q)) := hall 6 (by decide)
    clear hall
    simp only [hf, List.drop_succ_cons, List.drop_zero]
    have hl : (rvF n q).length = 32 := shaF_len _
    have hsz : (hrow (rvF n q)).size = 32 := by rw [hrow_size]; exact hl
    have hone := hrow_one (rvF n q)
    have y9 := cells_of y9 hbw hy9
    have hbel := hbel.trans (hbw.mono hbel.size)
    go_wp2_with (refine wpList_storeRowTo rfl (.tmp 4) (.tmp 18) 35 rfl (by rw [hsz]; kernel_rfl) rfl rfl y9 (by rw [hsz]; rfl) hone ?_)
    refine bodyPost_ret (v := .agg (hrow (rvF n q))) ?_ rfl ?_
    · simp [results, Tryd.results61, asAddr]
      exact run_loadVar_row _ _ 35 35 _ (0, 0) _ (setRow_heap _ _ _ _ _ _ y9) Tryd.underlying35 rfl (by rw [hsz]; kernel_rfl)
    exact ⟨by rw [HR.out], below_setRow hbel (by omega) _⟩
end Go.Proofs.YtpledhipdiephaaDoor
