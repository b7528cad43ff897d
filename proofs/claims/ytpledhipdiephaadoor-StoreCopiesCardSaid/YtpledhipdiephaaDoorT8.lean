/- Ways and folds: the math. TreeDeep, walked; what the chapter's examples fix. A hash that comes in. TreeGrows, walked; a list of hashes that comes in. The hashes beside a leaf's path: tree.Way. The top out of a leaf and its way: tree.fold, tree.Fold; lists of hashes that are the same. tree.Fold; lists of hashes that are the same. -/
import Derived.Test.YtpledhipdiephaaDoorSt3
import Derived.Test.YtpledhipdiephaaDoorT7
import Derived.Test.YtpledhipdiephaaDoorT1
import Derived.Test.YtpledhipdiephaaDoorTreeN
import Derived.WalkKit
import Derived.ProofKit
import Derived.Handy
import Derived.Below
import Derived.Lib.Hide
import Derived.IntWalk
import Derived.Outline
import Derived.WalkLawsBesides
import Derived.WalkSpells
import Derived.Test.YtpledhipdiephaaDoorRows
import Derived.Test.YtpledhipdiephaaDoorOpen
import Derived.Test.YtpledhipdiephaaDoorPhiC
namespace Go.Proofs.YtpledhipdiephaaDoor
open Go.RowKit
set_option linter.unusedVariables false
/-- The hashes beside the path from leaf i to the top, the lowest one first. -/
def wayH (l : List H32) (i : Nat) : List H32 :=
  if h : 2 ≤ l.length ∧ i < l.length then
    (if i < halfN l.length then wayH (l.take (halfN l.length)) i ++ [topH (l.drop (halfN l.length))] else wayH (l.drop (halfN l.length)) (i - halfN l.length) ++ [topH (l.take (halfN l.length))])
  else []
termination_by l.length
decreasing_by
  · rw [List.length_take]; have := halfN_lt h.1; omega
  · rw [List.length_drop]; have := halfN_pos l.length; omega
theorem wayH_none {l : List H32} {i : Nat} (h : ¬ (2 ≤ l.length ∧ i < l.length)) : wayH l i = [] := by rw [wayH, dif_neg h]
theorem wayH_left {l : List H32} {i : Nat} (h : 2 ≤ l.length) (hi : i < halfN l.length) : wayH l i = wayH (l.take (halfN l.length)) i ++ [topH (l.drop (halfN l.length))] := by
  have := halfN_lt h
  conv => lhs; rw [wayH]
  rw [dif_pos ⟨h, by omega⟩, if_pos hi]
theorem wayH_right {l : List H32} {i : Nat} (h : 2 ≤ l.length) (h2 : i < l.length) (hi : ¬ i < halfN l.length) : wayH l i = wayH (l.drop (halfN l.length)) (i - halfN l.length) ++ [topH (l.take (halfN l.length))] := by
  conv => lhs; rw [wayH]
  rw [dif_pos ⟨h, h2⟩, if_neg hi]
theorem way_len : ∀ (m : Nat) (l : List H32) (i : Nat), l.length = m → i < m → (wayH l i).length = deepN m i := by
  intro m
  induction m using Nat.strongRecOn with
  | _ m ih =>
    intro l i hl hi
    by_cases h2 : 2 ≤ m
    · have h1 := halfN_lt h2
      have h0 := halfN_pos m
      by_cases hh : i < halfN m
      · rw [wayH_left (by omega) (by rw [hl]; exact hh), hl, List.length_append, deepN_left h2 hh, ih _ h1 (l.take (halfN m)) i (by rw [List.length_take]; omega) hh, List.length_singleton, Nat.add_comm]
      · rw [wayH_right (by omega) (by omega) (by rw [hl]; exact hh), hl, List.length_append, deepN_right h2 hh, ih (m - halfN m) (by omega) (l.drop (halfN m)) (i - halfN m) (by rw [List.length_drop]; omega) (by omega), List.length_singleton, Nat.add_comm]
    · rw [wayH_none (by omega), deepN_small (by omega)]; rfl
end Go.Proofs.YtpledhipdiephaaDoor
namespace Go.Proofs.YtpledhipdiephaaDoor
open Go.RowKit
attribute [local go_sem] strV
set_option linter.unusedVariables false
end Go.Proofs.YtpledhipdiephaaDoor
namespace Go.Proofs.YtpledhipdiephaaDoor
open Go.RowKit Go.ChangeShapes Go.WideShapes Go.Deep
section
variable {H : Type} {enc : TypeId × Value → H} {P : Program} {w : World} {base : Nat} {spare : Nat → Bool} {held : Bool}
theorem Reads.bytes {t e : TypeId} {n : Nat} {r : List Value} (h : Reads enc P w base spare held t r) (ht : P.underlying t = some (.array n e)) (he : P.underlying e = some (.int .u8)) (hce : P.cellsOf e = 1) (hr : r.length = n) :
    ∃ q : List UInt8, q.length = n ∧ r = Lib.byteCells q := by
  obtain ⟨m, y, h⟩ := h
  obtain ⟨xs, k, _, _, _, hlen, hf⟩ := DataW.trod_array ht h
  have key : ∀ i, i < n → ∃ c : UInt8, r[i]? = some (.int .u8 (c.toNat : Int)) := fun i hi => by
    have hx := hf i hi
    rw [hce, Nat.mul_one] at hx
    obtain ⟨c, hc⟩ : ∃ c, xs[i]? = some c := ⟨_, List.getElem?_eq_getElem (by omega)⟩
    rw [hc] at hx
    obtain ⟨z, h1, _, h2⟩ := DataW.trod_int he hx
    have hz : 0 ≤ z ∧ z ≤ 255 := by simpa [Lit.wf, IntKind.min, IntKind.max, IntKind.signed, IntKind.bits] using h2
    refine ⟨UInt8.ofNat z.toNat, ?_⟩
    have h3 : ((r.drop i).take 1)[0]? = some (.int .u8 z) := by rw [h1]; rfl
    rw [List.getElem?_take_of_lt (by omega), List.getElem?_drop, Nat.add_zero] at h3
    rw [h3]
    congr 2
    rw [UInt8.toNat_ofNat', Nat.mod_eq_of_lt (by omega)]
    omega
  obtain ⟨q, hq, hp⟩ := list_of n (fun i (c : UInt8) => r[i]? = some (.int .u8 (c.toNat : Int))) key
  refine ⟨q, hq, ?_⟩
  apply List.ext_getElem?
  intro i
  rcases Nat.lt_or_ge i n with hi | hi
  · have hqi : q[i]? = some q[i] := List.getElem?_eq_getElem (by omega)
    rw [hp i _ hqi]
    unfold Lib.byteCells
    rw [List.getElem?_map, hqi]; rfl
  · rw [List.getElem?_eq_none (by omega), List.getElem?_eq_none (by rw [Lib.byteCells_length]; omega)]
end
end Go.Proofs.YtpledhipdiephaaDoor
namespace Go.Proofs.YtpledhipdiephaaDoor
open Go.RowKit
attribute [local go_sem] strV
set_option linter.unusedVariables false
section
open Go.ChangeShapes Go.WideShapes Go.Deep
variable {Hh : Type} {enc : TypeId × Value → Hh} {w : World} {base : Nat} {spare : Nat → Bool} {held : Bool}
end
end Go.Proofs.YtpledhipdiephaaDoor
namespace Go.Proofs.YtpledhipdiephaaDoor
open Go.RowKit
attribute [local go_sem] strV
set_option linter.unusedVariables false

theorem Tryd.infoH : (Tryd.prog.info? 35).map (fun i => (i.zero, i.size, i.bytes)) = some (some (.agg #[.int .u8 0, .int .u8 0, .int .u8 0, .int .u8 0, .int .u8 0, .int .u8 0, .int .u8 0, .int .u8 0, .int .u8 0, .int .u8 0, .int .u8 0, .int .u8 0, .int .u8 0, .int .u8 0, .int .u8 0, .int .u8 0, .int .u8 0, .int .u8 0, .int .u8 0, .int .u8 0, .int .u8 0, .int .u8 0, .int .u8 0, .int .u8 0, .int .u8 0, .int .u8 0, .int .u8 0, .int .u8 0, .int .u8 0, .int .u8 0, .int .u8 0, .int .u8 0]), 32, 32) := by kernel_rfl
theorem row_newH (w : World) (cur : Array Value) (t : TypeId) : RowAt (w.alloc (.cells cur t)) (some ⟨w.heap.size, 0, none⟩) cur.toList :=
  .inr ⟨_, 0, rfl, by simp, fun j hj => by
    rw [Nat.zero_add, cell_heap (show (w.heap.push _)[w.heap.size]? = _ by rw [Array.getElem?_push_size]) j]
    simp⟩
theorem fold_set (l : List Value) : ∀ (k : Nat) (a : Array Value), k + l.length ≤ a.size → (l.zipIdx k).foldl (fun c x => c.setIfInBounds x.2 x.1) a = (a.toList.take k ++ l ++ a.toList.drop (k + l.length)).toArray := by
  induction l with
  | nil => intro k a _; simp
  | cons x l ih =>
    intro k a h
    rw [List.length_cons] at h
    rw [List.zipIdx_cons, List.foldl_cons, ih (k + 1) _ (by simp; omega)]
    simp only [Array.toList_setIfInBounds, List.length_cons]
    have hk : k < a.toList.length := by simp; omega
    rw [List.take_succ_eq_append_getElem (by rw [List.length_set]; exact hk), List.getElem_set_self, List.take_set, List.set_eq_of_length_le (by rw [List.length_take]; omega), List.drop_set, if_pos (by omega)]
    rw [show k + 1 + l.length = k + (l.length + 1) by omega]
    simp
theorem fold_row (zs cs : Array Value) (n : Nat) (h1 : cs.size = n) (h2 : zs.size = n) : Array.foldl (fun c x => c.setIfInBounds x.2 x.1) zs cs.zipIdx 0 n = cs := by
  subst h1
  have h3 : cs.zipIdx.size = cs.size := by simp
  rw [← h3, ← Array.foldl_toList, Array.toList_zipIdx, fold_set _ 0 zs (by simp; omega)]
  apply Array.ext'
  simp
  omega
def Fact.own (B : Nat) (n : Nat) (xs : List Value) : Fact := ⟨fun v w => w.ownsRow B 35 32 v n xs, fun _ _ _ h hb => own_keptH h hb⟩
theorem H32.list (q : H32) : (hrow q.1).toList = q.cells := by rw [← H32.row]
theorem hs_one1 {q : H32} : ∀ u ∈ q.cells, u.oneCell' = true := fun u hu =>
  (Array.all_eq_true_iff_forall_mem.1 (hrow_one q.1)) u (by rw [← H32.row]; simpa using hu)
def WayPost (w : World) (l : List H32) (i : Nat) (e : Ending) (w' : World) : Prop := ∃ v, e = .returned v ∧ w'.ownsRow w.heap.size 35 32 v (wayH l i).length ((wayH l i).flatMap H32.cells) ∧ Below w.heap.size w w'
end Go.Proofs.YtpledhipdiephaaDoor
namespace Go.Proofs.YtpledhipdiephaaDoor
open Go.RowKit
attribute [local go_sem] strV
set_option linter.unusedVariables false

def Fact.cell (B : Nat) : Fact := ⟨fun v w => ∃ g, v = .pointer (some ⟨g, 0, none⟩) ∧ B ≤ g ∧ w.heap[g]? = some (.cells #[Value.int .u8 0, Value.int .u8 0, Value.int .u8 0, Value.int .u8 0, Value.int .u8 0, Value.int .u8 0, Value.int .u8 0, Value.int .u8 0, Value.int .u8 0, Value.int .u8 0, Value.int .u8 0, Value.int .u8 0, Value.int .u8 0, Value.int .u8 0, Value.int .u8 0, Value.int .u8 0, Value.int .u8 0, Value.int .u8 0, Value.int .u8 0, Value.int .u8 0, Value.int .u8 0, Value.int .u8 0, Value.int .u8 0, Value.int .u8 0, Value.int .u8 0, Value.int .u8 0, Value.int .u8 0, Value.int .u8 0, Value.int .u8 0, Value.int .u8 0, Value.int .u8 0, Value.int .u8 0] 35 (0, 0)),
  fun _ _ _ ⟨g, h1, h2, h3⟩ hb => ⟨g, h1, h2, (hb.block g (Array.getElem?_eq_some_iff.1 h3).1).trans h3⟩⟩
end Go.Proofs.YtpledhipdiephaaDoor
namespace Go.Proofs.YtpledhipdiephaaDoor
open Go.RowKit
attribute [local go_sem] strV
set_option linter.unusedVariables false

def hsB (l m : List H32) : Bool := decide (l = m)
end Go.Proofs.YtpledhipdiephaaDoor
