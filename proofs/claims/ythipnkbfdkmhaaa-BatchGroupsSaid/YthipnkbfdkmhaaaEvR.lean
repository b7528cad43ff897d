/- Packets out of bytes: an end. -/
import Derived.Test.YthipnkbfdkmhaaaGD
import Derived.Test.YthipnkbfdkmhaaaGC
import Derived.Deep.MidRow
import Derived.Deep.Cut
import Derived.WalkKit
import Derived.ProofKit
import Derived.Handy
import Derived.Below
import Derived.BigQuiet
import Derived.Lib.Hide
import Derived.IntWalk
import Derived.Outline
import Derived.WalkLawsBesides
import Derived.WalkSpells
namespace Go.Proofs.Ythipnkbfdkmhaaa
open Go.RowKit
attribute [local go_sem] strV
set_option linter.unusedVariables false
/-- What reading an end answers: port, channel, the place behind it, the error. -/
def endG (s : ByteArray) (at_ err : Int) : ByteArray × Int × Int × Int :=
  let x := textG s at_ err 12
  let y := numG s x.2.1 x.2.2 0 999
  (x.1, y.1, y.2.1, y.2.2)
theorem row_one2 (p : ByteArray) (c : Int) : (#[.string p, .int .i64 c] : Array Value).all (·.oneCell') = true := by
  rw [Array.all_eq_true_iff_forall_mem]; intro v hv; simp at hv; rcases hv with rfl | rfl <;> rfl
theorem RAt.setRow {b g : Nat} {w : World} {s : ByteArray} {A E : Int} (h : RAt b w s A E) (hne : g ≠ b) (cs : Array Value) : RAt b (w.setRow g cs) s A E := by
  unfold RAt at h ⊢
  rw [setRow_other w g b cs (Ne.symm hne)]; exact h
set_option maxRecDepth 100000 in
set_option maxHeartbeats 1600000 in
theorem readEnd_any (b : Nat) (w : World) (s : ByteArray) (at_ err : Int) (h : RAt b w s at_ err) (hs : s.size ≤ 1000000000) :
    Calls Try.prog 121 #[.pointer (some ⟨b, 0, none⟩)] w fun e w' => e = .returned (.agg #[.string (endG s at_ err).1, .int .i64 (endG s at_ err).2.1]) ∧ RAt b w' s (endG s at_ err).2.2.1 (endG s at_ err).2.2.2 ∧ Kept b w w' := by
  obtain ⟨⟨p, a1, e1⟩, h1⟩ : ∃ t, textG s at_ err 12 = t := ⟨_, rfl⟩
  obtain ⟨⟨c, a2, e2⟩, h2⟩ : ∃ t, numG s a1 e1 0 999 = t := ⟨_, rfl⟩
  have hE : endG s at_ err = (p, c, a2, e2) := by unfold endG; simp only [h1, h2]
  rw [hE]
  have C1 := fun W h => rtext_all b W s at_ err 12 h hs
  have C2 := fun W h => rnum_all b W s a1 e1 0 999 h hs
  simp only [h1] at C1
  simp only [h2] at C2
  clear h1 h2 hE
  have hlt := h.lt
  have hz0 : (w.alloc (.cells #[.string ⟨#[]⟩, .int .i64 0] 27)).heap[w.heap.size]? = some (.cells #[.string ⟨#[]⟩, .int .i64 0] 27 (0, 0)) := by
    show (w.heap.push _)[w.heap.size]? = _
    rw [Array.getElem?_push_size]
  have hbA : Below w.heap.size w (w.alloc (.cells #[.string ⟨#[]⟩, .int .i64 0] 27)) := Below.alloc (Below.refl _ _) (Nat.le_refl _) _
  go_enter Try.func121, Try.ntmps121
  go_upto_region 1 with fail
  refine wp_nameE _ (fun W1 hW => ?_)
  have hZ := hz0
  rw [← hW] at hZ
  have hb1 : Below w.heap.size w W1 := by rw [hW]; exact hbA
  have hR := h.below hb1 hlt
  have hK : Kept b w W1 := Kept.of hb1
  have hne : w.heap.size ≠ b := by omega
  clear hW hz0 hbA hb1 h
  go_upto_region 2 with (go_at_call 103; refine (C1 _ hR).mono ?_; rintro e w2 ⟨rfl, hR, hk⟩; have hZ := hk.row5 hZ hne; have hK := hK.trans hk)
  go_wp2_with (first | (go_at_call 78; refine (C2 _ hR).mono ?_; rintro e w3 ⟨rfl, hR, hk⟩; have hZ := hk.row5 hZ hne; have hK := hK.trans hk) | (refine wpList_storeRowTo rfl (.tmp 2) (.tmp 9) 27 rfl (by kernel_rfl) rfl rfl hZ rfl (row_one2 _ _) ?_))
  have hZ2 : (World.setRow _ w.heap.size #[.string p, .int .i64 c]).heap[w.heap.size]? = some (.cells #[.string p, .int .i64 c] 27 (0, 0)) := setRow_heap _ _ _ _ _ _ hZ
  have hrd := run_loadVar_mid (P := Try.prog) _ w.heap.size 0 27 (#[.string p, .int .i64 c] : Array Value).toList _ (rangeAt_row5 hZ2) Try.underlying27 rfl (by kernel_rfl)
  refine bodyPost_ret (v := .agg #[.string p, .int .i64 c]) ?_ rfl ?_
  · simp [results, Try.results121, asAddr]
    exact hrd
  exact ⟨rfl, hR.setRow hne _, hK.setRow (Nat.le_refl _) _⟩
end Go.Proofs.Ythipnkbfdkmhaaa
