/- The document's own reader: a hash that is there. -/
import Derived.Test.YtngohpkkajcalaaReaderT
import Derived.Test.YtngohpkkajcalaaReaderU
import Derived.BigRegion
import Derived.RegionTactic
import Derived.Laws.Tables
import Derived.Laws.Rows
import Derived.Laws.Cells
import Derived.WalkKit
import Derived.ProofKit
import Derived.Handy
import Derived.Below
import Derived.BigQuiet
import Derived.Lib.Hide
import Derived.IntWalk
import Derived.Outline
import Derived.WalkLawsBesides
import Derived.WalkSpells
namespace Go.Proofs.Ytngohpkkajcalaa
open Go.RowKit
attribute [local go_sem] strV
/-- The row while it is filled: k bytes are there. -/
def prow (l : List UInt8) (k : Nat) : Array Value := (Lib.byteCells (l.take k) ++ List.replicate (32 - k) (Value.int .u8 0)).toArray
theorem prow_full {l : List UInt8} (h : l.length = 32) : prow l 32 = hrow l := by
  unfold prow hrow; rw [List.take_of_length_le (by omega)]; simp
theorem prow_size {l : List UInt8} (h : l.length = 32) {k : Nat} (hk : k ≤ 32) : (prow l k).size = 32 := by
  simp [prow, Lib.byteCells_length]; omega
theorem prow_at {l : List UInt8} (h : l.length = 32) {k : Nat} (hk : k < 32) : (prow l k)[k]? = some (.int .u8 0) := by
  have e : (Lib.byteCells (l.take k)).length = k := by rw [Lib.byteCells_length, List.length_take]; omega
  simp only [prow, List.getElem?_toArray]
  rw [List.getElem?_append_right (by omega), e, Nat.sub_self]
  obtain ⟨m, hm⟩ : ∃ m, 32 - k = m + 1 := ⟨31 - k, by omega⟩
  rw [hm]; rfl
theorem prow_step {l : List UInt8} (h : l.length = 32) {k : Nat} (hk : k < 32) {x : UInt8} (hx : l[k]? = some x) : (prow l k).setIfInBounds k (.int .u8 (x.toNat : Int)) = prow l (k + 1) := by
  have e : (Lib.byteCells (l.take k)).length = k := by rw [Lib.byteCells_length, List.length_take]; omega
  unfold prow
  obtain ⟨m, hm⟩ : ∃ m, 32 - k = m + 1 := ⟨31 - k, by omega⟩
  rw [hm, show 32 - (k + 1) = m by omega, List.take_add_one, hx]
  simp only [List.setIfInBounds_toArray, List.replicate_succ]
  congr 1
  rw [List.set_append_right _ _ (by omega), e, Nat.sub_self]
  simp [Lib.byteCells]
theorem row_put {W : World} {g k : Nat} {cur : Array Value} {t : TypeId} {v : Value} (h : W.heap[g]? = some (.cells cur t (0, 0))) : (W.setCell ⟨g, k, none⟩ v).heap[g]? = some (.cells (cur.setIfInBounds k v) t (0, 0)) := by
  rw [setCell_eq_setRow W g k cur t (0, 0) v h]; exact setRow_heap W g _ _ t _ h
set_option maxRecDepth 100000 in
set_option maxHeartbeats 1600000 in
theorem qhash_ok (B b : Nat) (w : World) (s : ByteArray) (i : Nat) (h : QAt b w s i 0) (hs : s.size ≤ 1000000000) (hB : B ≤ b) (hq : i + 32 ≤ s.size) :
    Calls Try.prog 19 #[.pointer (some ⟨b, 0, none⟩)] w fun e w' => e = .returned (.agg (hrow (hashL s i))) ∧ QAt b w' s ((i : Int) + 32) 0 ∧ Below B w w' := by
  have c0 := h.c0; have c1 := h.c1; have c2 := h.c2
  have hlt := h.lt
  have _ := hs
  have hL : (hashL s i).length = 32 := hashL_len s i (by omega) (by omega)
  have g0 : ((w.alloc (.cells #[.int .u8 0, .int .u8 0, .int .u8 0, .int .u8 0, .int .u8 0, .int .u8 0, .int .u8 0, .int .u8 0, .int .u8 0, .int .u8 0, .int .u8 0, .int .u8 0, .int .u8 0, .int .u8 0, .int .u8 0, .int .u8 0, .int .u8 0, .int .u8 0, .int .u8 0, .int .u8 0, .int .u8 0, .int .u8 0, .int .u8 0, .int .u8 0, .int .u8 0, .int .u8 0, .int .u8 0, .int .u8 0, .int .u8 0, .int .u8 0, .int .u8 0, .int .u8 0] 42)).alloc (.cells #[.int .u8 0, .int .u8 0, .int .u8 0, .int .u8 0, .int .u8 0, .int .u8 0, .int .u8 0, .int .u8 0, .int .u8 0, .int .u8 0, .int .u8 0, .int .u8 0, .int .u8 0, .int .u8 0, .int .u8 0, .int .u8 0, .int .u8 0, .int .u8 0, .int .u8 0, .int .u8 0, .int .u8 0, .int .u8 0, .int .u8 0, .int .u8 0, .int .u8 0, .int .u8 0, .int .u8 0, .int .u8 0, .int .u8 0, .int .u8 0, .int .u8 0, .int .u8 0] 42)).heap[w.heap.size]? = some (.cells #[.int .u8 0, .int .u8 0, .int .u8 0, .int .u8 0, .int .u8 0, .int .u8 0, .int .u8 0, .int .u8 0, .int .u8 0, .int .u8 0, .int .u8 0, .int .u8 0, .int .u8 0, .int .u8 0, .int .u8 0, .int .u8 0, .int .u8 0, .int .u8 0, .int .u8 0, .int .u8 0, .int .u8 0, .int .u8 0, .int .u8 0, .int .u8 0, .int .u8 0, .int .u8 0, .int .u8 0, .int .u8 0, .int .u8 0, .int .u8 0, .int .u8 0, .int .u8 0] 42 (0, 0)) := by
    show ((w.heap.push _).push _)[w.heap.size]? = _
    rw [Array.getElem?_push_lt (by simp), ← Array.getElem?_eq_getElem (by simp), Array.getElem?_push_size]
  have g1 : ((w.alloc (.cells #[.int .u8 0, .int .u8 0, .int .u8 0, .int .u8 0, .int .u8 0, .int .u8 0, .int .u8 0, .int .u8 0, .int .u8 0, .int .u8 0, .int .u8 0, .int .u8 0, .int .u8 0, .int .u8 0, .int .u8 0, .int .u8 0, .int .u8 0, .int .u8 0, .int .u8 0, .int .u8 0, .int .u8 0, .int .u8 0, .int .u8 0, .int .u8 0, .int .u8 0, .int .u8 0, .int .u8 0, .int .u8 0, .int .u8 0, .int .u8 0, .int .u8 0, .int .u8 0] 42)).alloc (.cells #[.int .u8 0, .int .u8 0, .int .u8 0, .int .u8 0, .int .u8 0, .int .u8 0, .int .u8 0, .int .u8 0, .int .u8 0, .int .u8 0, .int .u8 0, .int .u8 0, .int .u8 0, .int .u8 0, .int .u8 0, .int .u8 0, .int .u8 0, .int .u8 0, .int .u8 0, .int .u8 0, .int .u8 0, .int .u8 0, .int .u8 0, .int .u8 0, .int .u8 0, .int .u8 0, .int .u8 0, .int .u8 0, .int .u8 0, .int .u8 0, .int .u8 0, .int .u8 0] 42)).heap[w.heap.size + 1]? = some (.cells (prow (hashL s i) 0) 42 (0, 0)) := by
    show ((w.heap.push _).push _)[w.heap.size + 1]? = _
    rw [show w.heap.size + 1 = (w.heap.push (Obj.cells #[.int .u8 0, .int .u8 0, .int .u8 0, .int .u8 0, .int .u8 0, .int .u8 0, .int .u8 0, .int .u8 0, .int .u8 0, .int .u8 0, .int .u8 0, .int .u8 0, .int .u8 0, .int .u8 0, .int .u8 0, .int .u8 0, .int .u8 0, .int .u8 0, .int .u8 0, .int .u8 0, .int .u8 0, .int .u8 0, .int .u8 0, .int .u8 0, .int .u8 0, .int .u8 0, .int .u8 0, .int .u8 0, .int .u8 0, .int .u8 0, .int .u8 0, .int .u8 0] 42 (0, 0))).size by simp, Array.getElem?_push_size]
    rfl
  have q1 : decide ((s.size : Int) - (i : Int) < 32) = false := decide_eq_false (by omega)
  have hb2 : Below w.heap.size w ((w.alloc (.cells #[.int .u8 0, .int .u8 0, .int .u8 0, .int .u8 0, .int .u8 0, .int .u8 0, .int .u8 0, .int .u8 0, .int .u8 0, .int .u8 0, .int .u8 0, .int .u8 0, .int .u8 0, .int .u8 0, .int .u8 0, .int .u8 0, .int .u8 0, .int .u8 0, .int .u8 0, .int .u8 0, .int .u8 0, .int .u8 0, .int .u8 0, .int .u8 0, .int .u8 0, .int .u8 0, .int .u8 0, .int .u8 0, .int .u8 0, .int .u8 0, .int .u8 0, .int .u8 0] 42)).alloc (.cells #[.int .u8 0, .int .u8 0, .int .u8 0, .int .u8 0, .int .u8 0, .int .u8 0, .int .u8 0, .int .u8 0, .int .u8 0, .int .u8 0, .int .u8 0, .int .u8 0, .int .u8 0, .int .u8 0, .int .u8 0, .int .u8 0, .int .u8 0, .int .u8 0, .int .u8 0, .int .u8 0, .int .u8 0, .int .u8 0, .int .u8 0, .int .u8 0, .int .u8 0, .int .u8 0, .int .u8 0, .int .u8 0, .int .u8 0, .int .u8 0, .int .u8 0, .int .u8 0] 42)) := Below.alloc (Below.alloc (Below.refl _ _) (by simp) _) (by simp) _
  go_enter Try.func19, Try.ntmps19
  go_wp2
  refine wp_nameR _ (fun W hW => ?_)
  have hR : QAt b W s i 0 := by rw [hW]; exact h.below hb2 hlt
  have hBW : Below w.heap.size w W := by rw [hW]; exact hb2
  have z0 : W.heap[w.heap.size]? = some (.cells #[.int .u8 0, .int .u8 0, .int .u8 0, .int .u8 0, .int .u8 0, .int .u8 0, .int .u8 0, .int .u8 0, .int .u8 0, .int .u8 0, .int .u8 0, .int .u8 0, .int .u8 0, .int .u8 0, .int .u8 0, .int .u8 0, .int .u8 0, .int .u8 0, .int .u8 0, .int .u8 0, .int .u8 0, .int .u8 0, .int .u8 0, .int .u8 0, .int .u8 0, .int .u8 0, .int .u8 0, .int .u8 0, .int .u8 0, .int .u8 0, .int .u8 0, .int .u8 0] 42 (0, 0)) := by rw [hW]; exact g0
  have z1 : W.heap[w.heap.size + 1]? = some (.cells (prow (hashL s i) 0) 42 (0, 0)) := by rw [hW]; exact g1
  clear hW g0 g1 c0 c1 c2
  have c0 := hR.c0; have c1 := hR.c1; have c2 := hR.c2
  go_quiet (fail)
  go_wp2
  refine wp_nameR _ (fun V hV => ?_)
  have hV0 : V.heap = W.heap := by rw [hV]; rfl
  have hRV : QAt b V s i 0 := by unfold QAt; rw [hV0]; exact hR
  have hBV : Below w.heap.size w V := by rw [hV]; exact hBW.trans ((drewN_below _ _).mono (by have := hBW.size; omega))
  rw [← hV0] at z0 z1
  clear hV c0 c1 c2
  go_loopw [4] (fun v wr => ∃ k : Nat, k ≤ 32 ∧ Below w.heap.size w wr ∧ QAt b wr s i 0 ∧ wr.heap[w.heap.size]? = some (.cells #[.int .u8 0, .int .u8 0, .int .u8 0, .int .u8 0, .int .u8 0, .int .u8 0, .int .u8 0, .int .u8 0, .int .u8 0, .int .u8 0, .int .u8 0, .int .u8 0, .int .u8 0, .int .u8 0, .int .u8 0, .int .u8 0, .int .u8 0, .int .u8 0, .int .u8 0, .int .u8 0, .int .u8 0, .int .u8 0, .int .u8 0, .int .u8 0, .int .u8 0, .int .u8 0, .int .u8 0, .int .u8 0, .int .u8 0, .int .u8 0, .int .u8 0, .int .u8 0] 42 (0, 0)) ∧ wr.heap[w.heap.size + 1]? = some (.cells (prow (hashL s i) k) 42 (0, 0)) ∧ v = .int .i64 (k : Int)) (fun v _ => 32 - (intOf v).toNat)
  case atStart => exact ⟨0, by omega, hBV, hRV, z0, z1, rfl⟩
  case round =>
    clear z0 z1
    obtain ⟨k, hk, hbel, hRr, y0, y1, rfl⟩ := hrel
    have c0 := hRr.c0; have c1 := hRr.c1; have f1 := hRr.fr 1
    by_cases hlt2 : k < 32
    · have d1 : decide ((k : Int) < 32) = true := decide_eq_true (by omega)
      have ck : wr.cell? ⟨w.heap.size + 1, k, none⟩ = some (.int .u8 0) := by rw [cell_heap y1, prow_at hL hlt2]
      have fk : wr.frozen? ⟨w.heap.size + 1, k, none⟩ = false := frozen_heap y1 k
      obtain ⟨x, hx⟩ : ∃ x, s[i + k]'(by omega) = x := ⟨_, rfl⟩
      have hxL : (hashL s i)[k]? = some x := by
        unfold hashL
        rw [List.getElem?_take_of_lt hlt2, List.getElem?_drop]
        simp only [Int.toNat_natCast]
        rw [str_get (by omega), hx]
      have b1 : (i : Int) + (k : Int) < (s.size : Int) := by omega
      have b2 : (0 : Int) ≤ (i : Int) + (k : Int) := by omega
      have e1 : IntKind.i64.wrap ((i : Int) + (k : Int)) = (i : Int) + (k : Int) := IntWalk.i64_in _ (by omega)
      have e2 : ((i : Int) + (k : Int)).toNat = i + k := by omega
      go_wp2
      go_region
      all_goals go_wp2
      go_roundw
      case rel => exact ⟨k + 1, by omega, (hbel.setCell (p := ⟨w.heap.size + 1, k, none⟩) (by show _ ≤ w.heap.size + 1; omega) _).drew, (by unfold QAt; exact row_set (W := wr.drew) hRr (by omega)), row_set (W := wr.drew) y0 (by omega), (by rw [← prow_step hL hlt2 hxL]; exact row_put (W := wr.drew) y1), by go_num⟩
      case measure => (simp [intOf]) <;> omega
    · obtain rfl : k = 32 := by omega
      rw [prow_full hL] at y1
      have hsz : (hrow (hashL s i)).size = 32 := by rw [hrow_size]; exact hL
      have hone := hrow_one (hashL s i)
      go_wp2_with (first | (refine wpList_loadRow rfl (.tmp 3) 42 rfl Try.underlying42 (by rw [hsz]; kernel_rfl) rfl (row_set y1 (by omega)) ?_) | (refine wpList_storeRowTo rfl (.tmp 2) (.tmp 56) 42 rfl (by rw [hsz]; kernel_rfl) rfl rfl (row_set y0 (by omega)) (by rw [hsz]; rfl) hone ?_))
      refine bodyPost_ret (v := .agg (hrow (hashL s i))) ?_ rfl ?_
      · simp [results, Try.results19, Act.put, asAddr]
        exact run_loadVar_row _ _ 42 42 _ (0, 0) _ (setRow_heap _ _ _ _ _ _ (row_set y0 (by omega))) Try.underlying42 rfl (by rw [hsz]; kernel_rfl)
      exact ⟨rfl, by unfold QAt; rw [setRow_other _ _ b _ (by omega)]; exact hRr.at1 _, below_setRow ((hbel.mono (by omega)).setCell (p := ⟨b, 1, none⟩) hB _) (by omega) _⟩
end Go.Proofs.Ytngohpkkajcalaa
