/- The chapter's example (liglaw23.first). -/
import Derived.Test.YtdlngadcgcgenaaSp4
import Derived.BigRegion
import Derived.RegionTactic
import Derived.BigQuiet
import Derived.Deep.QuietTactic
import Derived.Deep.MidRow
import Derived.LoopTactic
import Derived.BigFrame
import Derived.Laws.OwnMore
import Derived.WalkKit
import Derived.ProofKit
import Derived.Handy
import Derived.Below
import Derived.Lib.Hide
import Derived.IntWalk
import Derived.Outline
import Derived.WalkLawsBesides
import Derived.WalkSpells
namespace Go.Proofs.Ytdlngadcgcgenaa
open Go.RowKit
attribute [local go_sem] strV
set_option linter.unusedVariables false
theorem sort_ex : sortZ [3, 1, 2, 7] = [1, 2, 3, 7] := by
  unfold sortZ
  simp [List.mergeSort, List.MergeSort.Internal.splitInTwo]
theorem of_ex : ofR [3, 1, 2, 7] = [(1, 3), (7, 7)] := by
  unfold ofR
  rw [sort_ex]
  decide +kernel
theorem lacks_ex : lacksR [(1, 3), (7, 7)] 1 9 = [(4, 6), (8, 9)] := by decide +kernel
set_option maxRecDepth 100000 in
set_option maxHeartbeats 6400000 in
theorem first23_any (w : World) : Calls Try.prog 8 #[] w fun e w' => e = .returned (.bool true) ∧ Below w.heap.size w w' := by
  have hb0 : Below w.heap.size w (w.alloc (.cells #[.int .i64 3, .int .i64 1, .int .i64 2, .int .i64 7] 3)) := Below.alloc (Below.refl _ _) (Nat.le_refl _) _
  have hr0 : RowAt (w.alloc (.cells #[.int .i64 3, .int .i64 1, .int .i64 2, .int .i64 7] 3)) (some ⟨w.heap.size, 0, none⟩) ([3, 1, 2, 7].map (Value.int .i64)) := row_newI w #[.int .i64 3, .int .i64 1, .int .i64 2, .int .i64 7] 3
  have CO := of_any (some ⟨w.heap.size, 0, none⟩) 4 4 [3, 1, 2, 7] _ hr0 rfl (by omega)
  rw [of_ex] at CO
  have CL := fun (a : Option Addr) (cap : Nat) W (h : RowAt W a ([(1, 3), (7, 7)].flatMap rgL)) => lacks_any a 2 cap [(1, 3), (7, 7)] 1 9 W h rfl (by omega) (by omega) (by omega)
  rw [lacks_ex] at CL
  go_enter Try.func8, Try.ntmps8
  go_upto_region 2 with (go_at_call 13; refine CO.mono ?_; rintro e w2 ⟨v2, rfl, hown, hb⟩)
  have hbel := hb0.trans (hb.mono hb0.size)
  clear hb hb0 hr0 CO
  obtain ⟨g, c2, rfl⟩ := own_formS hown (by decide)
  obtain ⟨a9, c9, h9, hr9, _⟩ := own_slice hown
  simp only [Value.slice.injEq] at h9
  obtain ⟨e1, _, e2⟩ := h9
  subst e1 e2
  have CC := CL _ c2 _ hr9
  have hown : w2.ownsRow (w.heap.size + 1) 62 2 (.slice (some ⟨g, 0, none⟩) 2 c2) 2 ([(1, 3), (7, 7)].flatMap rgL) := by simpa using hown
  go_upto_region 3 with (go_at_call 10; refine CC.mono ?_; rintro e w3 ⟨v3, rfl, hown3, hb⟩)
  have hbel := hbel.trans (hb.mono hbel.size)
  have hown := own_kept9 hown hb
  obtain ⟨g3, c3, rfl⟩ := own_formS hown3 (by decide)
  have hown3 : w3.ownsRow w2.heap.size 62 2 (.slice (some ⟨g3, 0, none⟩) 2 c3) 2 ([(4, 6), (8, 9)].flatMap rgL) := by simpa using hown3
  have c0 : w3.cell? ⟨g, 0, none⟩ = some (.int .i64 1) := hown.cellAt 0 (by decide)
  have c1 : w3.cell? ⟨g, 1, none⟩ = some (.int .i64 3) := hown.cellAt 1 (by decide)
  have d2 : w3.cell? ⟨g3, 2, none⟩ = some (.int .i64 8) := hown3.cellAt 2 (by decide)
  have d3 : w3.cell? ⟨g3, 3, none⟩ = some (.int .i64 9) := hown3.cellAt 3 (by decide)
  clear hb CC CL hown hown3
  go_wp2
  go_ret
  exact ⟨by first | rfl | simp, hbel⟩
end Go.Proofs.Ytdlngadcgcgenaa
