/- The document's reader: hashes, counts, packets; all but its own block is kept. -/
import Derived.Test.YthipnkbfdkmhaaaReaderQK
import Derived.Test.YthipnkbfdkmhaaaGC
import Derived.Test.YthipnkbfdkmhaaaMsgD
import Derived.Test.YthipnkbfdkmhaaaPf3
import Derived.Test.YthipnkbfdkmhaaaOwn
import Derived.BigRegion
import Derived.RegionTactic
import Derived.BigQuiet
import Derived.Deep.QuietTactic
import Derived.Laws.Tables
import Derived.Laws.Rows
import Derived.Laws.Cells
import Derived.Deep.MidRow
import Derived.LoopTactic
import Derived.BigFrame
import Derived.WalkKit
import Derived.ProofKit
import Derived.Handy
import Derived.Below
import Derived.Lib.Hide
import Derived.IntWalk
import Derived.Outline
import Derived.WalkLawsBesides
import Derived.WalkSpells
namespace Go.Proofs.Ythipnkbfdkmhaaa
open Go.RowKit
attribute [local go_sem] strV
set_option linter.unusedVariables false
set_option maxRecDepth 100000 in
set_option maxHeartbeats 1600000 in
theorem qhash_errK (B b : Nat) (w : World) (s : ByteArray) (at_ : Int) (hB : B ≤ b) (err : Int) (h : QAt b w s at_ err) (he : (err == 0) = false) :
    Calls Try.prog 66 #[.pointer (some ⟨b, 0, none⟩)] w fun e w' => e = .returned (.agg #[.int .u8 0, .int .u8 0, .int .u8 0, .int .u8 0, .int .u8 0, .int .u8 0, .int .u8 0, .int .u8 0, .int .u8 0, .int .u8 0, .int .u8 0, .int .u8 0, .int .u8 0, .int .u8 0, .int .u8 0, .int .u8 0, .int .u8 0, .int .u8 0, .int .u8 0, .int .u8 0, .int .u8 0, .int .u8 0, .int .u8 0, .int .u8 0, .int .u8 0, .int .u8 0, .int .u8 0, .int .u8 0, .int .u8 0, .int .u8 0, .int .u8 0, .int .u8 0]) ∧ QAt b w' s at_ err ∧ Kept b w w' := by
  have c0 := h.c0; have c1 := h.c1; have c2 := h.c2
  have hlt := h.lt
  have g0 : ((w.alloc (.cells #[.int .u8 0, .int .u8 0, .int .u8 0, .int .u8 0, .int .u8 0, .int .u8 0, .int .u8 0, .int .u8 0, .int .u8 0, .int .u8 0, .int .u8 0, .int .u8 0, .int .u8 0, .int .u8 0, .int .u8 0, .int .u8 0, .int .u8 0, .int .u8 0, .int .u8 0, .int .u8 0, .int .u8 0, .int .u8 0, .int .u8 0, .int .u8 0, .int .u8 0, .int .u8 0, .int .u8 0, .int .u8 0, .int .u8 0, .int .u8 0, .int .u8 0, .int .u8 0] 23)).alloc (.cells #[.int .u8 0, .int .u8 0, .int .u8 0, .int .u8 0, .int .u8 0, .int .u8 0, .int .u8 0, .int .u8 0, .int .u8 0, .int .u8 0, .int .u8 0, .int .u8 0, .int .u8 0, .int .u8 0, .int .u8 0, .int .u8 0, .int .u8 0, .int .u8 0, .int .u8 0, .int .u8 0, .int .u8 0, .int .u8 0, .int .u8 0, .int .u8 0, .int .u8 0, .int .u8 0, .int .u8 0, .int .u8 0, .int .u8 0, .int .u8 0, .int .u8 0, .int .u8 0] 23)).heap[w.heap.size]? = some (.cells #[.int .u8 0, .int .u8 0, .int .u8 0, .int .u8 0, .int .u8 0, .int .u8 0, .int .u8 0, .int .u8 0, .int .u8 0, .int .u8 0, .int .u8 0, .int .u8 0, .int .u8 0, .int .u8 0, .int .u8 0, .int .u8 0, .int .u8 0, .int .u8 0, .int .u8 0, .int .u8 0, .int .u8 0, .int .u8 0, .int .u8 0, .int .u8 0, .int .u8 0, .int .u8 0, .int .u8 0, .int .u8 0, .int .u8 0, .int .u8 0, .int .u8 0, .int .u8 0] 23 (0, 0)) := by
    show ((w.heap.push _).push _)[w.heap.size]? = _
    rw [Array.getElem?_push_lt (by simp), ← Array.getElem?_eq_getElem (by simp), Array.getElem?_push_size]
  have g1 : ((w.alloc (.cells #[.int .u8 0, .int .u8 0, .int .u8 0, .int .u8 0, .int .u8 0, .int .u8 0, .int .u8 0, .int .u8 0, .int .u8 0, .int .u8 0, .int .u8 0, .int .u8 0, .int .u8 0, .int .u8 0, .int .u8 0, .int .u8 0, .int .u8 0, .int .u8 0, .int .u8 0, .int .u8 0, .int .u8 0, .int .u8 0, .int .u8 0, .int .u8 0, .int .u8 0, .int .u8 0, .int .u8 0, .int .u8 0, .int .u8 0, .int .u8 0, .int .u8 0, .int .u8 0] 23)).alloc (.cells #[.int .u8 0, .int .u8 0, .int .u8 0, .int .u8 0, .int .u8 0, .int .u8 0, .int .u8 0, .int .u8 0, .int .u8 0, .int .u8 0, .int .u8 0, .int .u8 0, .int .u8 0, .int .u8 0, .int .u8 0, .int .u8 0, .int .u8 0, .int .u8 0, .int .u8 0, .int .u8 0, .int .u8 0, .int .u8 0, .int .u8 0, .int .u8 0, .int .u8 0, .int .u8 0, .int .u8 0, .int .u8 0, .int .u8 0, .int .u8 0, .int .u8 0, .int .u8 0] 23)).heap[w.heap.size + 1]? = some (.cells #[.int .u8 0, .int .u8 0, .int .u8 0, .int .u8 0, .int .u8 0, .int .u8 0, .int .u8 0, .int .u8 0, .int .u8 0, .int .u8 0, .int .u8 0, .int .u8 0, .int .u8 0, .int .u8 0, .int .u8 0, .int .u8 0, .int .u8 0, .int .u8 0, .int .u8 0, .int .u8 0, .int .u8 0, .int .u8 0, .int .u8 0, .int .u8 0, .int .u8 0, .int .u8 0, .int .u8 0, .int .u8 0, .int .u8 0, .int .u8 0, .int .u8 0, .int .u8 0] 23 (0, 0)) := by
    show ((w.heap.push _).push _)[w.heap.size + 1]? = _
    rw [show w.heap.size + 1 = (w.heap.push (Obj.cells #[.int .u8 0, .int .u8 0, .int .u8 0, .int .u8 0, .int .u8 0, .int .u8 0, .int .u8 0, .int .u8 0, .int .u8 0, .int .u8 0, .int .u8 0, .int .u8 0, .int .u8 0, .int .u8 0, .int .u8 0, .int .u8 0, .int .u8 0, .int .u8 0, .int .u8 0, .int .u8 0, .int .u8 0, .int .u8 0, .int .u8 0, .int .u8 0, .int .u8 0, .int .u8 0, .int .u8 0, .int .u8 0, .int .u8 0, .int .u8 0, .int .u8 0, .int .u8 0] 23 (0, 0))).size by simp, Array.getElem?_push_size]
  have hall : (#[.int .u8 0, .int .u8 0, .int .u8 0, .int .u8 0, .int .u8 0, .int .u8 0, .int .u8 0, .int .u8 0, .int .u8 0, .int .u8 0, .int .u8 0, .int .u8 0, .int .u8 0, .int .u8 0, .int .u8 0, .int .u8 0, .int .u8 0, .int .u8 0, .int .u8 0, .int .u8 0, .int .u8 0, .int .u8 0, .int .u8 0, .int .u8 0, .int .u8 0, .int .u8 0, .int .u8 0, .int .u8 0, .int .u8 0, .int .u8 0, .int .u8 0, .int .u8 0] : Array Value).all (·.oneCell') = true := by kernel_rfl
  have hb2 : Below w.heap.size w ((w.alloc (.cells #[.int .u8 0, .int .u8 0, .int .u8 0, .int .u8 0, .int .u8 0, .int .u8 0, .int .u8 0, .int .u8 0, .int .u8 0, .int .u8 0, .int .u8 0, .int .u8 0, .int .u8 0, .int .u8 0, .int .u8 0, .int .u8 0, .int .u8 0, .int .u8 0, .int .u8 0, .int .u8 0, .int .u8 0, .int .u8 0, .int .u8 0, .int .u8 0, .int .u8 0, .int .u8 0, .int .u8 0, .int .u8 0, .int .u8 0, .int .u8 0, .int .u8 0, .int .u8 0] 23)).alloc (.cells #[.int .u8 0, .int .u8 0, .int .u8 0, .int .u8 0, .int .u8 0, .int .u8 0, .int .u8 0, .int .u8 0, .int .u8 0, .int .u8 0, .int .u8 0, .int .u8 0, .int .u8 0, .int .u8 0, .int .u8 0, .int .u8 0, .int .u8 0, .int .u8 0, .int .u8 0, .int .u8 0, .int .u8 0, .int .u8 0, .int .u8 0, .int .u8 0, .int .u8 0, .int .u8 0, .int .u8 0, .int .u8 0, .int .u8 0, .int .u8 0, .int .u8 0, .int .u8 0] 23)) := Below.alloc (Below.alloc (Below.refl _ _) (by simp) _) (by simp) _
  go_enter Try.func66, Try.ntmps66
  go_wp2
  refine wp_nameR _ (fun W hW => ?_)
  have hR : QAt b W s at_ err := by rw [hW]; exact h.below hb2 hlt
  have hBW : Below w.heap.size w W := by rw [hW]; exact hb2
  have z0 : W.heap[w.heap.size]? = some (.cells #[.int .u8 0, .int .u8 0, .int .u8 0, .int .u8 0, .int .u8 0, .int .u8 0, .int .u8 0, .int .u8 0, .int .u8 0, .int .u8 0, .int .u8 0, .int .u8 0, .int .u8 0, .int .u8 0, .int .u8 0, .int .u8 0, .int .u8 0, .int .u8 0, .int .u8 0, .int .u8 0, .int .u8 0, .int .u8 0, .int .u8 0, .int .u8 0, .int .u8 0, .int .u8 0, .int .u8 0, .int .u8 0, .int .u8 0, .int .u8 0, .int .u8 0, .int .u8 0] 23 (0, 0)) := by rw [hW]; exact g0
  have z1 : W.heap[w.heap.size + 1]? = some (.cells #[.int .u8 0, .int .u8 0, .int .u8 0, .int .u8 0, .int .u8 0, .int .u8 0, .int .u8 0, .int .u8 0, .int .u8 0, .int .u8 0, .int .u8 0, .int .u8 0, .int .u8 0, .int .u8 0, .int .u8 0, .int .u8 0, .int .u8 0, .int .u8 0, .int .u8 0, .int .u8 0, .int .u8 0, .int .u8 0, .int .u8 0, .int .u8 0, .int .u8 0, .int .u8 0, .int .u8 0, .int .u8 0, .int .u8 0, .int .u8 0, .int .u8 0, .int .u8 0] 23 (0, 0)) := by rw [hW]; exact g1
  clear hW g0 g1 c0 c1 c2
  have c0 := hR.c0; have c1 := hR.c1; have c2 := hR.c2; have f2 := hR.fr 2
  go_quiet (fail)
  go_wp2_with (first | (refine wpList_loadRow rfl (.tmp 3) 23 rfl Try.underlying23 (by kernel_rfl) rfl z1 ?_) | (refine wpList_storeRow rfl (.tmp 2) (.tmp 31) 23 rfl (by kernel_rfl) rfl rfl z0 hall ?_))
  refine bodyPost_ret (v := .agg #[.int .u8 0, .int .u8 0, .int .u8 0, .int .u8 0, .int .u8 0, .int .u8 0, .int .u8 0, .int .u8 0, .int .u8 0, .int .u8 0, .int .u8 0, .int .u8 0, .int .u8 0, .int .u8 0, .int .u8 0, .int .u8 0, .int .u8 0, .int .u8 0, .int .u8 0, .int .u8 0, .int .u8 0, .int .u8 0, .int .u8 0, .int .u8 0, .int .u8 0, .int .u8 0, .int .u8 0, .int .u8 0, .int .u8 0, .int .u8 0, .int .u8 0, .int .u8 0]) ?_ rfl ?_
  · simp [results, Try.results66, Act.put, asAddr]
    exact run_loadVar_row _ _ 23 23 _ (0, 0) _ z0 Try.underlying23 rfl (by kernel_rfl)
  exact ⟨rfl, hR, (Kept.of hBW).trans (Kept.of (drewN_below _ _))⟩
set_option maxRecDepth 100000 in
set_option maxHeartbeats 1600000 in
theorem qhash_shortK (B b : Nat) (w : World) (s : ByteArray) (at_ : Int) (hB : B ≤ b) (h : QAt b w s at_ 0) (ha : 0 ≤ at_) (ha2 : at_ ≤ s.size) (hs : s.size ≤ 1000000000) (hq : (s.size : Int) - at_ < 32) :
    Calls Try.prog 66 #[.pointer (some ⟨b, 0, none⟩)] w fun e w' => e = .returned (.agg #[.int .u8 0, .int .u8 0, .int .u8 0, .int .u8 0, .int .u8 0, .int .u8 0, .int .u8 0, .int .u8 0, .int .u8 0, .int .u8 0, .int .u8 0, .int .u8 0, .int .u8 0, .int .u8 0, .int .u8 0, .int .u8 0, .int .u8 0, .int .u8 0, .int .u8 0, .int .u8 0, .int .u8 0, .int .u8 0, .int .u8 0, .int .u8 0, .int .u8 0, .int .u8 0, .int .u8 0, .int .u8 0, .int .u8 0, .int .u8 0, .int .u8 0, .int .u8 0]) ∧ QAt b w' s at_ 2 ∧ Kept b w w' := by
  have c0 := h.c0; have c1 := h.c1; have c2 := h.c2
  have hlt := h.lt
  have _ := hs; have _ := ha
  have g0 : ((w.alloc (.cells #[.int .u8 0, .int .u8 0, .int .u8 0, .int .u8 0, .int .u8 0, .int .u8 0, .int .u8 0, .int .u8 0, .int .u8 0, .int .u8 0, .int .u8 0, .int .u8 0, .int .u8 0, .int .u8 0, .int .u8 0, .int .u8 0, .int .u8 0, .int .u8 0, .int .u8 0, .int .u8 0, .int .u8 0, .int .u8 0, .int .u8 0, .int .u8 0, .int .u8 0, .int .u8 0, .int .u8 0, .int .u8 0, .int .u8 0, .int .u8 0, .int .u8 0, .int .u8 0] 23)).alloc (.cells #[.int .u8 0, .int .u8 0, .int .u8 0, .int .u8 0, .int .u8 0, .int .u8 0, .int .u8 0, .int .u8 0, .int .u8 0, .int .u8 0, .int .u8 0, .int .u8 0, .int .u8 0, .int .u8 0, .int .u8 0, .int .u8 0, .int .u8 0, .int .u8 0, .int .u8 0, .int .u8 0, .int .u8 0, .int .u8 0, .int .u8 0, .int .u8 0, .int .u8 0, .int .u8 0, .int .u8 0, .int .u8 0, .int .u8 0, .int .u8 0, .int .u8 0, .int .u8 0] 23)).heap[w.heap.size]? = some (.cells #[.int .u8 0, .int .u8 0, .int .u8 0, .int .u8 0, .int .u8 0, .int .u8 0, .int .u8 0, .int .u8 0, .int .u8 0, .int .u8 0, .int .u8 0, .int .u8 0, .int .u8 0, .int .u8 0, .int .u8 0, .int .u8 0, .int .u8 0, .int .u8 0, .int .u8 0, .int .u8 0, .int .u8 0, .int .u8 0, .int .u8 0, .int .u8 0, .int .u8 0, .int .u8 0, .int .u8 0, .int .u8 0, .int .u8 0, .int .u8 0, .int .u8 0, .int .u8 0] 23 (0, 0)) := by
    show ((w.heap.push _).push _)[w.heap.size]? = _
    rw [Array.getElem?_push_lt (by simp), ← Array.getElem?_eq_getElem (by simp), Array.getElem?_push_size]
  have g1 : ((w.alloc (.cells #[.int .u8 0, .int .u8 0, .int .u8 0, .int .u8 0, .int .u8 0, .int .u8 0, .int .u8 0, .int .u8 0, .int .u8 0, .int .u8 0, .int .u8 0, .int .u8 0, .int .u8 0, .int .u8 0, .int .u8 0, .int .u8 0, .int .u8 0, .int .u8 0, .int .u8 0, .int .u8 0, .int .u8 0, .int .u8 0, .int .u8 0, .int .u8 0, .int .u8 0, .int .u8 0, .int .u8 0, .int .u8 0, .int .u8 0, .int .u8 0, .int .u8 0, .int .u8 0] 23)).alloc (.cells #[.int .u8 0, .int .u8 0, .int .u8 0, .int .u8 0, .int .u8 0, .int .u8 0, .int .u8 0, .int .u8 0, .int .u8 0, .int .u8 0, .int .u8 0, .int .u8 0, .int .u8 0, .int .u8 0, .int .u8 0, .int .u8 0, .int .u8 0, .int .u8 0, .int .u8 0, .int .u8 0, .int .u8 0, .int .u8 0, .int .u8 0, .int .u8 0, .int .u8 0, .int .u8 0, .int .u8 0, .int .u8 0, .int .u8 0, .int .u8 0, .int .u8 0, .int .u8 0] 23)).heap[w.heap.size + 1]? = some (.cells #[.int .u8 0, .int .u8 0, .int .u8 0, .int .u8 0, .int .u8 0, .int .u8 0, .int .u8 0, .int .u8 0, .int .u8 0, .int .u8 0, .int .u8 0, .int .u8 0, .int .u8 0, .int .u8 0, .int .u8 0, .int .u8 0, .int .u8 0, .int .u8 0, .int .u8 0, .int .u8 0, .int .u8 0, .int .u8 0, .int .u8 0, .int .u8 0, .int .u8 0, .int .u8 0, .int .u8 0, .int .u8 0, .int .u8 0, .int .u8 0, .int .u8 0, .int .u8 0] 23 (0, 0)) := by
    show ((w.heap.push _).push _)[w.heap.size + 1]? = _
    rw [show w.heap.size + 1 = (w.heap.push (Obj.cells #[.int .u8 0, .int .u8 0, .int .u8 0, .int .u8 0, .int .u8 0, .int .u8 0, .int .u8 0, .int .u8 0, .int .u8 0, .int .u8 0, .int .u8 0, .int .u8 0, .int .u8 0, .int .u8 0, .int .u8 0, .int .u8 0, .int .u8 0, .int .u8 0, .int .u8 0, .int .u8 0, .int .u8 0, .int .u8 0, .int .u8 0, .int .u8 0, .int .u8 0, .int .u8 0, .int .u8 0, .int .u8 0, .int .u8 0, .int .u8 0, .int .u8 0, .int .u8 0] 23 (0, 0))).size by simp, Array.getElem?_push_size]
  have hall : (#[.int .u8 0, .int .u8 0, .int .u8 0, .int .u8 0, .int .u8 0, .int .u8 0, .int .u8 0, .int .u8 0, .int .u8 0, .int .u8 0, .int .u8 0, .int .u8 0, .int .u8 0, .int .u8 0, .int .u8 0, .int .u8 0, .int .u8 0, .int .u8 0, .int .u8 0, .int .u8 0, .int .u8 0, .int .u8 0, .int .u8 0, .int .u8 0, .int .u8 0, .int .u8 0, .int .u8 0, .int .u8 0, .int .u8 0, .int .u8 0, .int .u8 0, .int .u8 0] : Array Value).all (·.oneCell') = true := by kernel_rfl
  have q1 : decide ((s.size : Int) - at_ < 32) = true := decide_eq_true hq
  have hb2 : Below w.heap.size w ((w.alloc (.cells #[.int .u8 0, .int .u8 0, .int .u8 0, .int .u8 0, .int .u8 0, .int .u8 0, .int .u8 0, .int .u8 0, .int .u8 0, .int .u8 0, .int .u8 0, .int .u8 0, .int .u8 0, .int .u8 0, .int .u8 0, .int .u8 0, .int .u8 0, .int .u8 0, .int .u8 0, .int .u8 0, .int .u8 0, .int .u8 0, .int .u8 0, .int .u8 0, .int .u8 0, .int .u8 0, .int .u8 0, .int .u8 0, .int .u8 0, .int .u8 0, .int .u8 0, .int .u8 0] 23)).alloc (.cells #[.int .u8 0, .int .u8 0, .int .u8 0, .int .u8 0, .int .u8 0, .int .u8 0, .int .u8 0, .int .u8 0, .int .u8 0, .int .u8 0, .int .u8 0, .int .u8 0, .int .u8 0, .int .u8 0, .int .u8 0, .int .u8 0, .int .u8 0, .int .u8 0, .int .u8 0, .int .u8 0, .int .u8 0, .int .u8 0, .int .u8 0, .int .u8 0, .int .u8 0, .int .u8 0, .int .u8 0, .int .u8 0, .int .u8 0, .int .u8 0, .int .u8 0, .int .u8 0] 23)) := Below.alloc (Below.alloc (Below.refl _ _) (by simp) _) (by simp) _
  go_enter Try.func66, Try.ntmps66
  go_wp2
  refine wp_nameR _ (fun W hW => ?_)
  have hR : QAt b W s at_ 0 := by rw [hW]; exact h.below hb2 hlt
  have hBW : Below w.heap.size w W := by rw [hW]; exact hb2
  have z0 : W.heap[w.heap.size]? = some (.cells #[.int .u8 0, .int .u8 0, .int .u8 0, .int .u8 0, .int .u8 0, .int .u8 0, .int .u8 0, .int .u8 0, .int .u8 0, .int .u8 0, .int .u8 0, .int .u8 0, .int .u8 0, .int .u8 0, .int .u8 0, .int .u8 0, .int .u8 0, .int .u8 0, .int .u8 0, .int .u8 0, .int .u8 0, .int .u8 0, .int .u8 0, .int .u8 0, .int .u8 0, .int .u8 0, .int .u8 0, .int .u8 0, .int .u8 0, .int .u8 0, .int .u8 0, .int .u8 0] 23 (0, 0)) := by rw [hW]; exact g0
  have z1 : W.heap[w.heap.size + 1]? = some (.cells #[.int .u8 0, .int .u8 0, .int .u8 0, .int .u8 0, .int .u8 0, .int .u8 0, .int .u8 0, .int .u8 0, .int .u8 0, .int .u8 0, .int .u8 0, .int .u8 0, .int .u8 0, .int .u8 0, .int .u8 0, .int .u8 0, .int .u8 0, .int .u8 0, .int .u8 0, .int .u8 0, .int .u8 0, .int .u8 0, .int .u8 0, .int .u8 0, .int .u8 0, .int .u8 0, .int .u8 0, .int .u8 0, .int .u8 0, .int .u8 0, .int .u8 0, .int .u8 0] 23 (0, 0)) := by rw [hW]; exact g1
  clear hW g0 g1 c0 c1 c2
  have c0 := hR.c0; have c1 := hR.c1; have c2 := hR.c2; have f2 := hR.fr 2
  go_quiet (fail)
  go_wp2_with (first | (refine wpList_loadRow rfl (.tmp 3) 23 rfl Try.underlying23 (by kernel_rfl) rfl (row_set z1 (by omega)) ?_) | (refine wpList_storeRow rfl (.tmp 2) (.tmp 31) 23 rfl (by kernel_rfl) rfl rfl (row_set z0 (by omega)) hall ?_))
  refine bodyPost_ret (v := .agg #[.int .u8 0, .int .u8 0, .int .u8 0, .int .u8 0, .int .u8 0, .int .u8 0, .int .u8 0, .int .u8 0, .int .u8 0, .int .u8 0, .int .u8 0, .int .u8 0, .int .u8 0, .int .u8 0, .int .u8 0, .int .u8 0, .int .u8 0, .int .u8 0, .int .u8 0, .int .u8 0, .int .u8 0, .int .u8 0, .int .u8 0, .int .u8 0, .int .u8 0, .int .u8 0, .int .u8 0, .int .u8 0, .int .u8 0, .int .u8 0, .int .u8 0, .int .u8 0]) ?_ rfl ?_
  · simp [results, Try.results66, Act.put, asAddr]
    exact run_loadVar_row _ _ 23 23 _ (0, 0) _ (row_set z0 (by omega)) Try.underlying23 rfl (by kernel_rfl)
  exact ⟨rfl, hR.at2 _, ((Kept.of hBW).trans (Kept.of (drewN_below _ _))).setCell _ _⟩
set_option maxRecDepth 100000 in
set_option maxHeartbeats 1600000 in
theorem qhash_okK (B b : Nat) (w : World) (s : ByteArray) (i : Nat) (h : QAt b w s i 0) (hs : s.size ≤ 1000000000) (hB : B ≤ b) (hq : i + 32 ≤ s.size) :
    Calls Try.prog 66 #[.pointer (some ⟨b, 0, none⟩)] w fun e w' => e = .returned (.agg (hrow (hashL s i))) ∧ QAt b w' s ((i : Int) + 32) 0 ∧ Kept b w w' := by
  have c0 := h.c0; have c1 := h.c1; have c2 := h.c2
  have hlt := h.lt
  have _ := hs
  have hL : (hashL s i).length = 32 := hashL_len s i (by omega) (by omega)
  have g0 : ((w.alloc (.cells #[.int .u8 0, .int .u8 0, .int .u8 0, .int .u8 0, .int .u8 0, .int .u8 0, .int .u8 0, .int .u8 0, .int .u8 0, .int .u8 0, .int .u8 0, .int .u8 0, .int .u8 0, .int .u8 0, .int .u8 0, .int .u8 0, .int .u8 0, .int .u8 0, .int .u8 0, .int .u8 0, .int .u8 0, .int .u8 0, .int .u8 0, .int .u8 0, .int .u8 0, .int .u8 0, .int .u8 0, .int .u8 0, .int .u8 0, .int .u8 0, .int .u8 0, .int .u8 0] 23)).alloc (.cells #[.int .u8 0, .int .u8 0, .int .u8 0, .int .u8 0, .int .u8 0, .int .u8 0, .int .u8 0, .int .u8 0, .int .u8 0, .int .u8 0, .int .u8 0, .int .u8 0, .int .u8 0, .int .u8 0, .int .u8 0, .int .u8 0, .int .u8 0, .int .u8 0, .int .u8 0, .int .u8 0, .int .u8 0, .int .u8 0, .int .u8 0, .int .u8 0, .int .u8 0, .int .u8 0, .int .u8 0, .int .u8 0, .int .u8 0, .int .u8 0, .int .u8 0, .int .u8 0] 23)).heap[w.heap.size]? = some (.cells #[.int .u8 0, .int .u8 0, .int .u8 0, .int .u8 0, .int .u8 0, .int .u8 0, .int .u8 0, .int .u8 0, .int .u8 0, .int .u8 0, .int .u8 0, .int .u8 0, .int .u8 0, .int .u8 0, .int .u8 0, .int .u8 0, .int .u8 0, .int .u8 0, .int .u8 0, .int .u8 0, .int .u8 0, .int .u8 0, .int .u8 0, .int .u8 0, .int .u8 0, .int .u8 0, .int .u8 0, .int .u8 0, .int .u8 0, .int .u8 0, .int .u8 0, .int .u8 0] 23 (0, 0)) := by
    show ((w.heap.push _).push _)[w.heap.size]? = _
    rw [Array.getElem?_push_lt (by simp), ← Array.getElem?_eq_getElem (by simp), Array.getElem?_push_size]
  have g1 : ((w.alloc (.cells #[.int .u8 0, .int .u8 0, .int .u8 0, .int .u8 0, .int .u8 0, .int .u8 0, .int .u8 0, .int .u8 0, .int .u8 0, .int .u8 0, .int .u8 0, .int .u8 0, .int .u8 0, .int .u8 0, .int .u8 0, .int .u8 0, .int .u8 0, .int .u8 0, .int .u8 0, .int .u8 0, .int .u8 0, .int .u8 0, .int .u8 0, .int .u8 0, .int .u8 0, .int .u8 0, .int .u8 0, .int .u8 0, .int .u8 0, .int .u8 0, .int .u8 0, .int .u8 0] 23)).alloc (.cells #[.int .u8 0, .int .u8 0, .int .u8 0, .int .u8 0, .int .u8 0, .int .u8 0, .int .u8 0, .int .u8 0, .int .u8 0, .int .u8 0, .int .u8 0, .int .u8 0, .int .u8 0, .int .u8 0, .int .u8 0, .int .u8 0, .int .u8 0, .int .u8 0, .int .u8 0, .int .u8 0, .int .u8 0, .int .u8 0, .int .u8 0, .int .u8 0, .int .u8 0, .int .u8 0, .int .u8 0, .int .u8 0, .int .u8 0, .int .u8 0, .int .u8 0, .int .u8 0] 23)).heap[w.heap.size + 1]? = some (.cells (prow (hashL s i) 0) 23 (0, 0)) := by
    show ((w.heap.push _).push _)[w.heap.size + 1]? = _
    rw [show w.heap.size + 1 = (w.heap.push (Obj.cells #[.int .u8 0, .int .u8 0, .int .u8 0, .int .u8 0, .int .u8 0, .int .u8 0, .int .u8 0, .int .u8 0, .int .u8 0, .int .u8 0, .int .u8 0, .int .u8 0, .int .u8 0, .int .u8 0, .int .u8 0, .int .u8 0, .int .u8 0, .int .u8 0, .int .u8 0, .int .u8 0, .int .u8 0, .int .u8 0, .int .u8 0, .int .u8 0, .int .u8 0, .int .u8 0, .int .u8 0, .int .u8 0, .int .u8 0, .int .u8 0, .int .u8 0, .int .u8 0] 23 (0, 0))).size by simp, Array.getElem?_push_size]
    rfl
  have q1 : decide ((s.size : Int) - (i : Int) < 32) = false := decide_eq_false (by omega)
  have hb2 : Below w.heap.size w ((w.alloc (.cells #[.int .u8 0, .int .u8 0, .int .u8 0, .int .u8 0, .int .u8 0, .int .u8 0, .int .u8 0, .int .u8 0, .int .u8 0, .int .u8 0, .int .u8 0, .int .u8 0, .int .u8 0, .int .u8 0, .int .u8 0, .int .u8 0, .int .u8 0, .int .u8 0, .int .u8 0, .int .u8 0, .int .u8 0, .int .u8 0, .int .u8 0, .int .u8 0, .int .u8 0, .int .u8 0, .int .u8 0, .int .u8 0, .int .u8 0, .int .u8 0, .int .u8 0, .int .u8 0] 23)).alloc (.cells #[.int .u8 0, .int .u8 0, .int .u8 0, .int .u8 0, .int .u8 0, .int .u8 0, .int .u8 0, .int .u8 0, .int .u8 0, .int .u8 0, .int .u8 0, .int .u8 0, .int .u8 0, .int .u8 0, .int .u8 0, .int .u8 0, .int .u8 0, .int .u8 0, .int .u8 0, .int .u8 0, .int .u8 0, .int .u8 0, .int .u8 0, .int .u8 0, .int .u8 0, .int .u8 0, .int .u8 0, .int .u8 0, .int .u8 0, .int .u8 0, .int .u8 0, .int .u8 0] 23)) := Below.alloc (Below.alloc (Below.refl _ _) (by simp) _) (by simp) _
  go_enter Try.func66, Try.ntmps66
  go_wp2
  refine wp_nameR _ (fun W hW => ?_)
  have hR : QAt b W s i 0 := by rw [hW]; exact h.below hb2 hlt
  have hBW : Below w.heap.size w W := by rw [hW]; exact hb2
  have z0 : W.heap[w.heap.size]? = some (.cells #[.int .u8 0, .int .u8 0, .int .u8 0, .int .u8 0, .int .u8 0, .int .u8 0, .int .u8 0, .int .u8 0, .int .u8 0, .int .u8 0, .int .u8 0, .int .u8 0, .int .u8 0, .int .u8 0, .int .u8 0, .int .u8 0, .int .u8 0, .int .u8 0, .int .u8 0, .int .u8 0, .int .u8 0, .int .u8 0, .int .u8 0, .int .u8 0, .int .u8 0, .int .u8 0, .int .u8 0, .int .u8 0, .int .u8 0, .int .u8 0, .int .u8 0, .int .u8 0] 23 (0, 0)) := by rw [hW]; exact g0
  have z1 : W.heap[w.heap.size + 1]? = some (.cells (prow (hashL s i) 0) 23 (0, 0)) := by rw [hW]; exact g1
  clear hW g0 g1 c0 c1 c2
  have c0 := hR.c0; have c1 := hR.c1; have c2 := hR.c2
  go_quiet (fail)
  go_wp2
  refine wp_nameR _ (fun V hV => ?_)
  have hV0 : V.heap = W.heap := by rw [hV]; rfl
  have hRV : QAt b V s i 0 := by unfold QAt; rw [hV0]; exact hR
  have hBV : Below w.heap.size w V := by rw [hV]; exact hBW.trans ((drewN_below _ _).mono (by have := hBW.size; omega))
  rw [← hV0] at z0 z1
  clear hV c0 c1 c2
  go_loopw [4] (fun v wr => ∃ k : Nat, k ≤ 32 ∧ Below w.heap.size w wr ∧ QAt b wr s i 0 ∧ wr.heap[w.heap.size]? = some (.cells #[.int .u8 0, .int .u8 0, .int .u8 0, .int .u8 0, .int .u8 0, .int .u8 0, .int .u8 0, .int .u8 0, .int .u8 0, .int .u8 0, .int .u8 0, .int .u8 0, .int .u8 0, .int .u8 0, .int .u8 0, .int .u8 0, .int .u8 0, .int .u8 0, .int .u8 0, .int .u8 0, .int .u8 0, .int .u8 0, .int .u8 0, .int .u8 0, .int .u8 0, .int .u8 0, .int .u8 0, .int .u8 0, .int .u8 0, .int .u8 0, .int .u8 0, .int .u8 0] 23 (0, 0)) ∧ wr.heap[w.heap.size + 1]? = some (.cells (prow (hashL s i) k) 23 (0, 0)) ∧ v = .int .i64 (k : Int)) (fun v _ => 32 - (intOf v).toNat)
  case atStart => exact ⟨0, by omega, hBV, hRV, z0, z1, rfl⟩
  case round =>
    clear z0 z1
    obtain ⟨k, hk, hbel, hRr, y0, y1, rfl⟩ := hrel
    have c0 := hRr.c0; have c1 := hRr.c1; have f1 := hRr.fr 1
    by_cases hlt2 : k < 32
    · have d1 : decide ((k : Int) < 32) = true := decide_eq_true (by omega)
      have ck : wr.cell? ⟨w.heap.size + 1, k, none⟩ = some (.int .u8 0) := by rw [cell_heap y1, prow_at hL hlt2]
      have fk : wr.frozen? ⟨w.heap.size + 1, k, none⟩ = false := frozen_heap y1 k
      obtain ⟨x, hx⟩ : ∃ x, s[i + k]'(by omega) = x := ⟨_, rfl⟩
      have hxL : (hashL s i)[k]? = some x := by
        unfold hashL
        rw [List.getElem?_take_of_lt hlt2, List.getElem?_drop]
        simp only [Int.toNat_natCast]
        rw [str_get (by omega), hx]
      have b1 : (i : Int) + (k : Int) < (s.size : Int) := by omega
      have b2 : (0 : Int) ≤ (i : Int) + (k : Int) := by omega
      have e1 : IntKind.i64.wrap ((i : Int) + (k : Int)) = (i : Int) + (k : Int) := IntWalk.i64_in _ (by omega)
      have e2 : ((i : Int) + (k : Int)).toNat = i + k := by omega
      go_wp2
      go_region
      all_goals go_wp2
      go_roundw
      case rel => exact ⟨k + 1, by omega, (hbel.setCell (p := ⟨w.heap.size + 1, k, none⟩) (by show _ ≤ w.heap.size + 1; omega) _).drew, (by unfold QAt; exact row_set (W := wr.drew) hRr (by omega)), row_set (W := wr.drew) y0 (by omega), (by rw [← prow_step hL hlt2 hxL]; exact row_put (W := wr.drew) y1), by go_num⟩
      case measure => (simp [intOf]) <;> omega
    · obtain rfl : k = 32 := by omega
      rw [prow_full hL] at y1
      have hsz : (hrow (hashL s i)).size = 32 := by rw [hrow_size]; exact hL
      have hone := hrow_one (hashL s i)
      go_wp2_with (first | (refine wpList_loadRow rfl (.tmp 3) 23 rfl Try.underlying23 (by rw [hsz]; kernel_rfl) rfl (row_set y1 (by omega)) ?_) | (refine wpList_storeRowTo rfl (.tmp 2) (.tmp 56) 23 rfl (by rw [hsz]; kernel_rfl) rfl rfl (row_set y0 (by omega)) (by rw [hsz]; rfl) hone ?_))
      refine bodyPost_ret (v := .agg (hrow (hashL s i))) ?_ rfl ?_
      · simp [results, Try.results66, Act.put, asAddr]
        exact run_loadVar_row _ _ 23 23 _ (0, 0) _ (setRow_heap _ _ _ _ _ _ (row_set y0 (by omega))) Try.underlying23 rfl (by rw [hsz]; kernel_rfl)
      exact ⟨rfl, by unfold QAt; rw [setRow_other _ _ b _ (by omega)]; exact hRr.at1 _, ((Kept.of hbel).setCell _ _).setRow (Nat.le_refl _) _⟩
theorem qhashK_all (b : Nat) (w : World) (s : ByteArray) (at_ err : Int) (h : QAt b w s at_ err) (hs : s.size ≤ 1000000000) (hp : 0 ≤ at_ ∧ at_ ≤ s.size) :
    Calls Try.prog 66 #[.pointer (some ⟨b, 0, none⟩)] w fun e w' => e = .returned (.agg (hashG s at_ err).1) ∧ QAt b w' s (hashG s at_ err).2.1 (hashG s at_ err).2.2 ∧ Kept b w w' := by
  unfold hashG
  by_cases he : err = 0
  · subst he
    rw [if_pos rfl]
    by_cases hq : (s.size : Int) - at_ < 32
    · rw [if_pos hq]
      exact qhash_shortK b b w s at_ (Nat.le_refl _) h hp.1 hp.2 hs hq
    · rw [if_neg hq]
      obtain ⟨i, rfl⟩ : ∃ i : Nat, at_ = i := ⟨at_.toNat, by omega⟩
      exact qhash_okK b b w s i h hs (Nat.le_refl _) (by omega)
  · rw [if_neg he]
    exact qhash_errK b b w s at_ (Nat.le_refl _) err h (beq_eq_false_iff_ne.2 he)
set_option maxRecDepth 100000 in
set_option maxHeartbeats 1600000 in
theorem qcountK_all (b : Nat) (w : World) (s : ByteArray) (at_ err : Int) (most : Int) (h : QAt b w s at_ err) (hs : s.size ≤ 1000000000) :
    Calls Try.prog 108 #[.pointer (some ⟨b, 0, none⟩), .int .i64 most] w fun e w' => e = .returned (.int .i64 (countG s at_ err most).1) ∧ QAt b w' s (countG s at_ err most).2.1 (countG s at_ err most).2.2 ∧ Kept b w w' := by
  have hsm : s.size ≤ maxLen := by unfold maxLen; omega
  have hlt := h.lt
  have c0 := h.c0; have c1 := h.c1; have c2 := h.c2
  unfold countG
  by_cases he : err = 0
  rotate_left
  · rw [if_neg he]
    have e0 : (err == 0) = false := beq_eq_false_iff_ne.2 he
    go_enter Try.func108, Try.ntmps108
    go_wp2
    go_ret
    exact ⟨rfl, h, Kept.of (Below.refl _ _)⟩
  subst he
  rw [if_pos rfl]
  obtain ⟨v, n, er, hx⟩ : ∃ v n er, nextS s.data.toList at_ = (v, n, er) := ⟨_, _, _, rfl⟩
  obtain ⟨hbc, hbf⟩ := beyond_cells (W := w)
  have C1 : ∀ n' : Beyond w, Calls Try.prog 107 #[.string s, .int .i64 at_] n'.x fun e w' => e = .returned (.tuple #[.int .i64 v, .int .i64 n, .int .i64 er]) ∧ Below n'.x.heap.size n'.x w' := fun n' => (refNextB s at_ n'.x hsm).mono fun e w' ⟨h1, h2⟩ => ⟨by rw [h1, hx]; rfl, h2⟩
  by_cases her : er = 0
  rotate_left
  · have e0 : (er == 0) = false := beq_eq_false_iff_ne.2 her
    have hF : countF s at_ most = (0, at_, er) := by unfold countF; rw [hx]; simp [her]
    rw [hF]
    clear hF hx
    go_enter Try.func108, Try.ntmps108
    go_upto_region 3 with fail
    refine wp_region_below (by kernel_rfl) (by kernel_rfl) ?_
    repeat (go_big_quiet_step ((go_at_call 107; exact quiet_below (C1 _))))
    intro w9 hw9
    have hb9 := beyond_below hw9
    have h9 := h.below hb9 hlt
    have hbB : Kept b w w9 := Kept.of hb9
    have d0 := h9.c0; have d1 := h9.c1; have d2 := h9.c2; have f1 := h9.fr 1; have f2 := h9.fr 2
    go_wp2
    go_ret
    exact ⟨rfl, h9.at2 _, hbB.setCell _ _⟩
  subst her
  by_cases ho : most < v
  · have g1 : decide (most < v) = true := decide_eq_true ho
    have hF : countF s at_ most = (0, at_, 4) := by unfold countF; rw [hx]; simp [ho]
    rw [hF]
    clear hF hx
    go_enter Try.func108, Try.ntmps108
    go_upto_region 3 with fail
    refine wp_region_below (by kernel_rfl) (by kernel_rfl) ?_
    repeat (go_big_quiet_step ((go_at_call 107; exact quiet_below (C1 _))))
    intro w9 hw9
    have hb9 := beyond_below hw9
    have h9 := h.below hb9 hlt
    have hbB : Kept b w w9 := Kept.of hb9
    have d0 := h9.c0; have d1 := h9.c1; have d2 := h9.c2; have f1 := h9.fr 1; have f2 := h9.fr 2
    go_wp2
    go_ret
    exact ⟨rfl, h9.at2 _, hbB.setCell _ _⟩
  · have g1 : decide (most < v) = false := decide_eq_false ho
    have hF : countF s at_ most = (v, n, 0) := by unfold countF; rw [hx]; simp [ho]
    rw [hF]
    clear hF hx
    go_enter Try.func108, Try.ntmps108
    go_upto_region 3 with fail
    refine wp_region_below (by kernel_rfl) (by kernel_rfl) ?_
    repeat (go_big_quiet_step ((go_at_call 107; exact quiet_below (C1 _))))
    intro w9 hw9
    have hb9 := beyond_below hw9
    have h9 := h.below hb9 hlt
    have hbB : Kept b w w9 := Kept.of hb9
    have d0 := h9.c0; have d1 := h9.c1; have d2 := h9.c2; have f1 := h9.fr 1; have f2 := h9.fr 2
    go_wp2
    go_ret
    exact ⟨rfl, h9.at1 _, hbB.setCell _ _⟩
theorem QAt.put8 {b g k : Nat} {w : World} {s : ByteArray} {A E : Int} (h : QAt b w s A E) (hne : g ≠ b) (x : Value) : QAt b (w.setCell ⟨g, k, none⟩ x) s A E := by
  unfold QAt at h ⊢
  rw [row_oth' w g k b x (Ne.symm hne)]; exact h
theorem QAt.setRow8 {b g : Nat} {w : World} {s : ByteArray} {A E : Int} (h : QAt b w s A E) (hne : g ≠ b) (cs : Array Value) : QAt b (w.setRow g cs) s A E := by
  unfold QAt at h ⊢
  rw [setRow_other w g b cs (Ne.symm hne)]; exact h
set_option maxRecDepth 100000 in
set_option maxHeartbeats 6400000 in
theorem rdPk_any (b : Nat) (w : World) (s : ByteArray) (at_ err : Int) (h : QAt b w s at_ err) (hs : s.size ≤ 1000000000) :
    Calls Try.prog 67 #[.pointer (some ⟨b, 0, none⟩)] w fun e w' => e = .returned (.agg #[.string (pkG s at_ err).sp, .int .i64 (pkG s at_ err).sc, .string (pkG s at_ err).dp, .int .i64 (pkG s at_ err).dc, .int .i64 (pkG s at_ err).sq, .string (pkG s at_ err).da, .int .i64 (pkG s at_ err).th, .int .i64 (pkG s at_ err).ta]) ∧ QAt b w' s (pkG s at_ err).a (pkG s at_ err).e ∧ Kept b w w' := by
  obtain ⟨⟨sp, a1, e1⟩, h1⟩ : ∃ t, textG s at_ err 12 = t := ⟨_, rfl⟩
  obtain ⟨⟨sc, a2, e2⟩, h2⟩ : ∃ t, numG s a1 e1 0 999 = t := ⟨_, rfl⟩
  obtain ⟨⟨dp, a3, e3⟩, h3⟩ : ∃ t, textG s a2 e2 12 = t := ⟨_, rfl⟩
  obtain ⟨⟨dc, a4, e4⟩, h4⟩ : ∃ t, numG s a3 e3 0 999 = t := ⟨_, rfl⟩
  obtain ⟨⟨sq, a5, e5⟩, h5⟩ : ∃ t, numG s a4 e4 1 1099511627776 = t := ⟨_, rfl⟩
  obtain ⟨⟨da, a6, e6⟩, h6⟩ : ∃ t, textG s a5 e5 200 = t := ⟨_, rfl⟩
  obtain ⟨⟨th, a7, e7⟩, h7⟩ : ∃ t, numG s a6 e6 0 1099511627776 = t := ⟨_, rfl⟩
  obtain ⟨⟨ta, a8, e8⟩, h8⟩ : ∃ t, numG s a7 e7 0 1099511627776 = t := ⟨_, rfl⟩
  have hE : pkG s at_ err = ⟨sp, sc, dp, dc, sq, da, th, ta, a8, e8⟩ := by unfold pkG endG; simp only [h1, h2, h3, h4, h5, h6, h7, h8]
  rw [hE]
  have C1 := fun W h => qtextK_all b W s at_ err 12 h hs
  have C2 := fun W h => qnumK_all b W s a1 e1 0 999 h hs
  have C3 := fun W h => qtextK_all b W s a2 e2 12 h hs
  have C4 := fun W h => qnumK_all b W s a3 e3 0 999 h hs
  have C5 := fun W h => qnumK_all b W s a4 e4 1 1099511627776 h hs
  have C6 := fun W h => qtextK_all b W s a5 e5 200 h hs
  have C7 := fun W h => qnumK_all b W s a6 e6 0 1099511627776 h hs
  have C8 := fun W h => qnumK_all b W s a7 e7 0 1099511627776 h hs
  simp only [h1] at C1
  simp only [h2] at C2
  simp only [h3] at C3
  simp only [h4] at C4
  simp only [h5] at C5
  simp only [h6] at C6
  simp only [h7] at C7
  simp only [h8] at C8
  clear h1 h2 h3 h4 h5 h6 h7 h8 hE
  have hlt := h.lt
  have hz0 := al2_0 w (.cells #[.string ⟨#[]⟩, .int .i64 0, .string ⟨#[]⟩, .int .i64 0, .int .i64 0, .string ⟨#[]⟩, .int .i64 0, .int .i64 0] 29) (.cells #[.string ⟨#[]⟩, .int .i64 0, .string ⟨#[]⟩, .int .i64 0, .int .i64 0, .string ⟨#[]⟩, .int .i64 0, .int .i64 0] 29)
  have hg0 := al2_1 w (.cells #[.string ⟨#[]⟩, .int .i64 0, .string ⟨#[]⟩, .int .i64 0, .int .i64 0, .string ⟨#[]⟩, .int .i64 0, .int .i64 0] 29) (.cells #[.string ⟨#[]⟩, .int .i64 0, .string ⟨#[]⟩, .int .i64 0, .int .i64 0, .string ⟨#[]⟩, .int .i64 0, .int .i64 0] 29)
  have hbA := al2_below w (.cells #[.string ⟨#[]⟩, .int .i64 0, .string ⟨#[]⟩, .int .i64 0, .int .i64 0, .string ⟨#[]⟩, .int .i64 0, .int .i64 0] 29) (.cells #[.string ⟨#[]⟩, .int .i64 0, .string ⟨#[]⟩, .int .i64 0, .int .i64 0, .string ⟨#[]⟩, .int .i64 0, .int .i64 0] 29)
  go_enter Try.func67, Try.ntmps67
  go_upto_region 2 with fail
  refine wp_nameE _ (fun W2 hW => ?_)
  have hZ := hz0
  have hG := hg0
  rw [← hW] at hZ hG
  have hb1 : Below w.heap.size w W2 := by rw [hW]; exact hbA
  have hR := h.below hb1 hlt
  have hK : Kept b w W2 := Kept.of hb1
  have hzb : w.heap.size ≠ b := by omega
  have hgb : w.heap.size + 1 ≠ b := by omega
  have hgz : w.heap.size + 1 ≠ w.heap.size := by omega
  clear hW hz0 hg0 hbA hb1 h
  have qk := cell_heap hG 0; have fk := frozen_heap hG 0
  go_upto_region 3 with (go_at_call 68; refine (C1 _ hR).mono ?_; rintro e w1 ⟨rfl, hR, hk⟩; have hG := hk.row5 hG hgb; have hZ := hk.row5 hZ hzb; have hK := hK.trans hk; have qk := cell_heap hG 0; have fk := frozen_heap hG 0)
  refine wp_nameE _ (fun W3 hW => ?_)
  have hR : QAt b W3 s a1 e1 := by rw [hW]; exact hR.put8 hgb _
  have hG : W3.heap[w.heap.size + 1]? = some (.cells #[.string sp, .int .i64 0, .string ⟨#[]⟩, .int .i64 0, .int .i64 0, .string ⟨#[]⟩, .int .i64 0, .int .i64 0] 29 (0, 0)) := by rw [hW]; exact row_put5 hG
  have hZ : W3.heap[w.heap.size]? = some (.cells #[.string ⟨#[]⟩, .int .i64 0, .string ⟨#[]⟩, .int .i64 0, .int .i64 0, .string ⟨#[]⟩, .int .i64 0, .int .i64 0] 29 (0, 0)) := by rw [hW]; exact row_oth hZ hgz
  have hK : Kept b w W3 := by rw [hW]; exact hK.setFar (Nat.le_succ _)
  clear hW qk fk
  have qk := cell_heap hG 1; have fk := frozen_heap hG 1
  go_upto_region 4 with (go_at_call 65; refine (C2 _ hR).mono ?_; rintro e w1 ⟨rfl, hR, hk⟩; have hG := hk.row5 hG hgb; have hZ := hk.row5 hZ hzb; have hK := hK.trans hk; have qk := cell_heap hG 1; have fk := frozen_heap hG 1)
  refine wp_nameE _ (fun W4 hW => ?_)
  have hR : QAt b W4 s a2 e2 := by rw [hW]; exact hR.put8 hgb _
  have hG : W4.heap[w.heap.size + 1]? = some (.cells #[.string sp, .int .i64 sc, .string ⟨#[]⟩, .int .i64 0, .int .i64 0, .string ⟨#[]⟩, .int .i64 0, .int .i64 0] 29 (0, 0)) := by rw [hW]; exact row_put5 hG
  have hZ : W4.heap[w.heap.size]? = some (.cells #[.string ⟨#[]⟩, .int .i64 0, .string ⟨#[]⟩, .int .i64 0, .int .i64 0, .string ⟨#[]⟩, .int .i64 0, .int .i64 0] 29 (0, 0)) := by rw [hW]; exact row_oth hZ hgz
  have hK : Kept b w W4 := by rw [hW]; exact hK.setFar (Nat.le_succ _)
  clear hW qk fk
  have qk := cell_heap hG 2; have fk := frozen_heap hG 2
  go_upto_region 5 with (go_at_call 68; refine (C3 _ hR).mono ?_; rintro e w1 ⟨rfl, hR, hk⟩; have hG := hk.row5 hG hgb; have hZ := hk.row5 hZ hzb; have hK := hK.trans hk; have qk := cell_heap hG 2; have fk := frozen_heap hG 2)
  refine wp_nameE _ (fun W5 hW => ?_)
  have hR : QAt b W5 s a3 e3 := by rw [hW]; exact hR.put8 hgb _
  have hG : W5.heap[w.heap.size + 1]? = some (.cells #[.string sp, .int .i64 sc, .string dp, .int .i64 0, .int .i64 0, .string ⟨#[]⟩, .int .i64 0, .int .i64 0] 29 (0, 0)) := by rw [hW]; exact row_put5 hG
  have hZ : W5.heap[w.heap.size]? = some (.cells #[.string ⟨#[]⟩, .int .i64 0, .string ⟨#[]⟩, .int .i64 0, .int .i64 0, .string ⟨#[]⟩, .int .i64 0, .int .i64 0] 29 (0, 0)) := by rw [hW]; exact row_oth hZ hgz
  have hK : Kept b w W5 := by rw [hW]; exact hK.setFar (Nat.le_succ _)
  clear hW qk fk
  have qk := cell_heap hG 3; have fk := frozen_heap hG 3
  go_upto_region 6 with (go_at_call 65; refine (C4 _ hR).mono ?_; rintro e w1 ⟨rfl, hR, hk⟩; have hG := hk.row5 hG hgb; have hZ := hk.row5 hZ hzb; have hK := hK.trans hk; have qk := cell_heap hG 3; have fk := frozen_heap hG 3)
  refine wp_nameE _ (fun W6 hW => ?_)
  have hR : QAt b W6 s a4 e4 := by rw [hW]; exact hR.put8 hgb _
  have hG : W6.heap[w.heap.size + 1]? = some (.cells #[.string sp, .int .i64 sc, .string dp, .int .i64 dc, .int .i64 0, .string ⟨#[]⟩, .int .i64 0, .int .i64 0] 29 (0, 0)) := by rw [hW]; exact row_put5 hG
  have hZ : W6.heap[w.heap.size]? = some (.cells #[.string ⟨#[]⟩, .int .i64 0, .string ⟨#[]⟩, .int .i64 0, .int .i64 0, .string ⟨#[]⟩, .int .i64 0, .int .i64 0] 29 (0, 0)) := by rw [hW]; exact row_oth hZ hgz
  have hK : Kept b w W6 := by rw [hW]; exact hK.setFar (Nat.le_succ _)
  clear hW qk fk
  have qk := cell_heap hG 4; have fk := frozen_heap hG 4
  go_upto_region 7 with (go_at_call 65; refine (C5 _ hR).mono ?_; rintro e w1 ⟨rfl, hR, hk⟩; have hG := hk.row5 hG hgb; have hZ := hk.row5 hZ hzb; have hK := hK.trans hk; have qk := cell_heap hG 4; have fk := frozen_heap hG 4)
  refine wp_nameE _ (fun W7 hW => ?_)
  have hR : QAt b W7 s a5 e5 := by rw [hW]; exact hR.put8 hgb _
  have hG : W7.heap[w.heap.size + 1]? = some (.cells #[.string sp, .int .i64 sc, .string dp, .int .i64 dc, .int .i64 sq, .string ⟨#[]⟩, .int .i64 0, .int .i64 0] 29 (0, 0)) := by rw [hW]; exact row_put5 hG
  have hZ : W7.heap[w.heap.size]? = some (.cells #[.string ⟨#[]⟩, .int .i64 0, .string ⟨#[]⟩, .int .i64 0, .int .i64 0, .string ⟨#[]⟩, .int .i64 0, .int .i64 0] 29 (0, 0)) := by rw [hW]; exact row_oth hZ hgz
  have hK : Kept b w W7 := by rw [hW]; exact hK.setFar (Nat.le_succ _)
  clear hW qk fk
  have qk := cell_heap hG 5; have fk := frozen_heap hG 5
  go_upto_region 8 with (go_at_call 68; refine (C6 _ hR).mono ?_; rintro e w1 ⟨rfl, hR, hk⟩; have hG := hk.row5 hG hgb; have hZ := hk.row5 hZ hzb; have hK := hK.trans hk; have qk := cell_heap hG 5; have fk := frozen_heap hG 5)
  refine wp_nameE _ (fun W8 hW => ?_)
  have hR : QAt b W8 s a6 e6 := by rw [hW]; exact hR.put8 hgb _
  have hG : W8.heap[w.heap.size + 1]? = some (.cells #[.string sp, .int .i64 sc, .string dp, .int .i64 dc, .int .i64 sq, .string da, .int .i64 0, .int .i64 0] 29 (0, 0)) := by rw [hW]; exact row_put5 hG
  have hZ : W8.heap[w.heap.size]? = some (.cells #[.string ⟨#[]⟩, .int .i64 0, .string ⟨#[]⟩, .int .i64 0, .int .i64 0, .string ⟨#[]⟩, .int .i64 0, .int .i64 0] 29 (0, 0)) := by rw [hW]; exact row_oth hZ hgz
  have hK : Kept b w W8 := by rw [hW]; exact hK.setFar (Nat.le_succ _)
  clear hW qk fk
  have qk := cell_heap hG 6; have fk := frozen_heap hG 6
  go_upto_region 9 with (go_at_call 65; refine (C7 _ hR).mono ?_; rintro e w1 ⟨rfl, hR, hk⟩; have hG := hk.row5 hG hgb; have hZ := hk.row5 hZ hzb; have hK := hK.trans hk; have qk := cell_heap hG 6; have fk := frozen_heap hG 6)
  refine wp_nameE _ (fun W9 hW => ?_)
  have hR : QAt b W9 s a7 e7 := by rw [hW]; exact hR.put8 hgb _
  have hG : W9.heap[w.heap.size + 1]? = some (.cells #[.string sp, .int .i64 sc, .string dp, .int .i64 dc, .int .i64 sq, .string da, .int .i64 th, .int .i64 0] 29 (0, 0)) := by rw [hW]; exact row_put5 hG
  have hZ : W9.heap[w.heap.size]? = some (.cells #[.string ⟨#[]⟩, .int .i64 0, .string ⟨#[]⟩, .int .i64 0, .int .i64 0, .string ⟨#[]⟩, .int .i64 0, .int .i64 0] 29 (0, 0)) := by rw [hW]; exact row_oth hZ hgz
  have hK : Kept b w W9 := by rw [hW]; exact hK.setFar (Nat.le_succ _)
  clear hW qk fk
  have qk := cell_heap hG 7; have fk := frozen_heap hG 7
  go_upto_region 10 with (go_at_call 65; refine (C8 _ hR).mono ?_; rintro e w1 ⟨rfl, hR, hk⟩; have hG := hk.row5 hG hgb; have hZ := hk.row5 hZ hzb; have hK := hK.trans hk; have qk := cell_heap hG 7; have fk := frozen_heap hG 7)
  refine wp_nameE _ (fun W10 hW => ?_)
  have hR : QAt b W10 s a8 e8 := by rw [hW]; exact hR.put8 hgb _
  have hG : W10.heap[w.heap.size + 1]? = some (.cells #[.string sp, .int .i64 sc, .string dp, .int .i64 dc, .int .i64 sq, .string da, .int .i64 th, .int .i64 ta] 29 (0, 0)) := by rw [hW]; exact row_put5 hG
  have hZ : W10.heap[w.heap.size]? = some (.cells #[.string ⟨#[]⟩, .int .i64 0, .string ⟨#[]⟩, .int .i64 0, .int .i64 0, .string ⟨#[]⟩, .int .i64 0, .int .i64 0] 29 (0, 0)) := by rw [hW]; exact row_oth hZ hgz
  have hK : Kept b w W10 := by rw [hW]; exact hK.setFar (Nat.le_succ _)
  clear hW qk fk
  have q0 := cell_heap hG 0; have q1 := cell_heap hG 1; have q2 := cell_heap hG 2; have q3 := cell_heap hG 3; have q4 := cell_heap hG 4; have q5 := cell_heap hG 5; have q6 := cell_heap hG 6; have q7 := cell_heap hG 7
  go_wp2_with (refine wpList_storeRowTo rfl (.tmp 2) (.tmp 32) 29 rfl (by kernel_rfl) rfl rfl hZ rfl (Pk.row_one8 _ _ _ _ _ _ _ _) ?_)
  have hZ2 : (World.setRow _ w.heap.size #[.string sp, .int .i64 sc, .string dp, .int .i64 dc, .int .i64 sq, .string da, .int .i64 th, .int .i64 ta]).heap[w.heap.size]? = some (.cells #[.string sp, .int .i64 sc, .string dp, .int .i64 dc, .int .i64 sq, .string da, .int .i64 th, .int .i64 ta] 29 (0, 0)) := setRow_heap _ _ _ _ _ _ hZ
  have hrd := run_loadVar_mid (P := Try.prog) _ w.heap.size 0 29 (#[.string sp, .int .i64 sc, .string dp, .int .i64 dc, .int .i64 sq, .string da, .int .i64 th, .int .i64 ta] : Array Value).toList _ (rangeAt_row5 hZ2) Try.underlying29 rfl (by kernel_rfl)
  refine bodyPost_ret (v := .agg #[.string sp, .int .i64 sc, .string dp, .int .i64 dc, .int .i64 sq, .string da, .int .i64 th, .int .i64 ta]) ?_ rfl ?_
  · simp [results, Try.results67, asAddr]
    exact hrd
  exact ⟨rfl, hR.setRow8 hzb _, hK.setRow (Nat.le_refl _) _⟩
end Go.Proofs.Ythipnkbfdkmhaaa
