/- Store.Root. -/
import Derived.Test.YtpledhipdiephaaDoorSt10
import Derived.Test.YtpledhipdiephaaDoorTB
import Derived.BigRegion
import Derived.RegionTactic
import Derived.Deep.MidRow
import Derived.OneCell
import Derived.WalkKit
import Derived.ProofKit
import Derived.Handy
import Derived.Below
import Derived.Lib.Hide
import Derived.IntWalk
import Derived.Outline
import Derived.WalkLawsBesides
import Derived.WalkSpells
namespace Go.Proofs.YtpledhipdiephaaDoor
open Go.RowKit
attribute [local go_sem] strV
set_option linter.unusedVariables false
set_option linter.unusedSimpArgs false
/-- The root of a list of pairs. -/
noncomputable def rootL (l : List Pr) : Array Value := hrow (rootF (l.length : Int) (topH (l.map leafH)).1)
theorem rootL_of (l : List Pr) : ∃ R : H32, rootL l = hrow R.1 := ⟨⟨rootF (l.length : Int) (topH (l.map leafH)).1, rootF_len _ _⟩, rfl⟩
set_option maxRecDepth 100000 in
set_option maxHeartbeats 3200000 in
theorem rootB_any (g : Nat) (l : List Pr) (w : World) (hW : SW w) (h : StAt w g l) (hn6 : l.length ≤ 100000) :
    Calls Tryd.prog 16 #[.pointer (some ⟨g, 0, none⟩)] w fun e w' => e = .returned (.agg (rootL l)) ∧ Below w.heap.size w w' := by
  obtain ⟨hgd, a, cap, hg, hown⟩ := h
  obtain ⟨_, _, e9, hr, hcap, hcm, hnone⟩ := own_sliceN hown
  cases e9
  have hsz : ∀ p ∈ l, p.k.size ≤ 1000000 ∧ p.v.size ≤ 1000000 := fun p hp => by have := goodL_fits hgd hp; omega
  have CR := fun W (hb : Below w.heap.size w W) => proofRoot_any a l.length cap l W (hW.below hb) (hr.below hb) rfl (by omega) hcap hsz
  have hq := heap_push w #[Value.int .u8 0, Value.int .u8 0, Value.int .u8 0, Value.int .u8 0, Value.int .u8 0, Value.int .u8 0, Value.int .u8 0, Value.int .u8 0, Value.int .u8 0, Value.int .u8 0, Value.int .u8 0, Value.int .u8 0, Value.int .u8 0, Value.int .u8 0, Value.int .u8 0, Value.int .u8 0, Value.int .u8 0, Value.int .u8 0, Value.int .u8 0, Value.int .u8 0, Value.int .u8 0, Value.int .u8 0, Value.int .u8 0, Value.int .u8 0, Value.int .u8 0, Value.int .u8 0, Value.int .u8 0, Value.int .u8 0, Value.int .u8 0, Value.int .u8 0, Value.int .u8 0, Value.int .u8 0] 35
  have hb0 : Below w.heap.size w (w.alloc (.cells #[Value.int .u8 0, Value.int .u8 0, Value.int .u8 0, Value.int .u8 0, Value.int .u8 0, Value.int .u8 0, Value.int .u8 0, Value.int .u8 0, Value.int .u8 0, Value.int .u8 0, Value.int .u8 0, Value.int .u8 0, Value.int .u8 0, Value.int .u8 0, Value.int .u8 0, Value.int .u8 0, Value.int .u8 0, Value.int .u8 0, Value.int .u8 0, Value.int .u8 0, Value.int .u8 0, Value.int .u8 0, Value.int .u8 0, Value.int .u8 0, Value.int .u8 0, Value.int .u8 0, Value.int .u8 0, Value.int .u8 0, Value.int .u8 0, Value.int .u8 0, Value.int .u8 0, Value.int .u8 0] 35)) := Below.alloc (Below.refl _ _) (Nat.le_refl _) _
  have hc : (w.alloc (.cells #[Value.int .u8 0, Value.int .u8 0, Value.int .u8 0, Value.int .u8 0, Value.int .u8 0, Value.int .u8 0, Value.int .u8 0, Value.int .u8 0, Value.int .u8 0, Value.int .u8 0, Value.int .u8 0, Value.int .u8 0, Value.int .u8 0, Value.int .u8 0, Value.int .u8 0, Value.int .u8 0, Value.int .u8 0, Value.int .u8 0, Value.int .u8 0, Value.int .u8 0, Value.int .u8 0, Value.int .u8 0, Value.int .u8 0, Value.int .u8 0, Value.int .u8 0, Value.int .u8 0, Value.int .u8 0, Value.int .u8 0, Value.int .u8 0, Value.int .u8 0, Value.int .u8 0, Value.int .u8 0] 35)).cell? ⟨g, 0, none⟩ = some (.slice a l.length cap) := cell_heap (cells_of hg hb0 (row_lt hg)) 0
  obtain ⟨R, hR⟩ := rootL_of l
  have CR : ∀ W (hb : Below w.heap.size w W), Calls Tryd.prog 52 #[.slice a l.length cap] W fun e w' => e = .returned (.agg (hrow R.1)) ∧ Below W.heap.size W w' := fun W hb => by rw [← hR]; exact CR W hb
  rw [hR]
  have hRs : (hrow R.1).size = 32 := by rw [hrow_size]; exact R.2
  have hRo := hrow_one R.1
  clear hR hsz
  go_enter Tryd.func16, Tryd.ntmps16
  go_upto_region 1 with fail
  refine wp_nameE _ (fun W1 hX => ?_)
  have y2 : W1.heap[w.heap.size]? = some (.cells #[Value.int .u8 0, Value.int .u8 0, Value.int .u8 0, Value.int .u8 0, Value.int .u8 0, Value.int .u8 0, Value.int .u8 0, Value.int .u8 0, Value.int .u8 0, Value.int .u8 0, Value.int .u8 0, Value.int .u8 0, Value.int .u8 0, Value.int .u8 0, Value.int .u8 0, Value.int .u8 0, Value.int .u8 0, Value.int .u8 0, Value.int .u8 0, Value.int .u8 0, Value.int .u8 0, Value.int .u8 0, Value.int .u8 0, Value.int .u8 0, Value.int .u8 0, Value.int .u8 0, Value.int .u8 0, Value.int .u8 0, Value.int .u8 0, Value.int .u8 0, Value.int .u8 0, Value.int .u8 0] 35 (0, 0)) := by rw [hX]; exact hq
  have hbel : Below w.heap.size w W1 := by rw [hX]; exact hb0
  have hc : W1.cell? ⟨g, 0, none⟩ = some (.slice a l.length cap) := by rw [hX]; exact hc
  clear hX hq hb0
  have hy2 := (Array.getElem?_eq_some_iff.1 y2).1
  go_wp2_with (first | (go_at_call 52; refine (CR _ hbel).mono ?_; rintro e w4 ⟨rfl, hb⟩; have y2 := cells_of y2 hb hy2; have hbel := hbel.trans (hb.mono hbel.size); have hy2 := Nat.lt_of_lt_of_le hy2 hb.size; clear hb) | (refine wpList_storeRowTo (Z := hrow R.1) rfl (.tmp 2) (.tmp 7) 35 rfl (by rw [hRs]; kernel_rfl) rfl rfl y2 (by rw [hRs]; rfl) hRo ?_))
  have hrd := run_loadVar_row (P := Tryd.prog) _ _ 35 35 _ (0, 0) _ (setRow_heap _ _ _ _ _ _ y2) Tryd.underlying35 rfl (by rw [hRs]; kernel_rfl)
  refine bodyPost_ret (v := .agg (hrow R.1)) ?_ rfl ?_
  · simp [results, Tryd.results16, asAddr, Act.put, hrd]
    try rfl
  exact ⟨rfl, below_setRow hbel (Nat.le_refl _) _⟩
end Go.Proofs.YtpledhipdiephaaDoor
