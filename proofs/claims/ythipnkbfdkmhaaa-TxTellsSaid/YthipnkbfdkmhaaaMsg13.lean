/- What chapter 8's examples fix. -/
import Derived.Test.YthipnkbfdkmhaaaMsg12
import Derived.Deep.MidRow
import Derived.WalkKit
import Derived.ProofKit
import Derived.Handy
import Derived.Below
import Derived.Lib.Hide
import Derived.IntWalk
import Derived.Outline
import Derived.WalkLawsBesides
import Derived.WalkSpells
namespace Go.Proofs.Ythipnkbfdkmhaaa
open Go.RowKit
attribute [local go_sem] strV
set_option linter.unusedVariables false
theorem dec_at (v : ByteArray) (x : Int) (hv : v.size ≤ 1000000000) (hx : (decMsg v).2 = x) (w : World) :
    Calls Try.prog 18 #[.string v] w fun e w' => ∃ m : MsgV, e = .returned (.tuple #[.agg m.row, .int .i64 x]) ∧ m.ok w' ∧ m.heldM w' w.heap.size ∧ m.d = (decMsg v).1 ∧ Below w.heap.size w w' := by
  subst hx
  exact msgDecode_any v w hv
theorem encTx_nil : encTx [] = (⟨#[0]⟩, 0) := by
  unfold encTx txBy
  rw [if_neg (by decide), if_pos (by rfl)]
  decide +kernel
set_option maxRecDepth 100000 in
set_option maxHeartbeats 3200000 in
theorem first8_any (w : World) : Calls Try.prog 14 #[] w fun e w' => e = .returned (.bool true) ∧ Below w.heap.size w w' := by
  have CT := fun W => msgTx_any none 0 0 [] W (RowAt.nil _ _) (fun m h => by cases h) rfl
  rw [encTx_nil] at CT
  have C1 := fun W => dec_at ⟨#[]⟩ 2 (by decide) (by decide +kernel) W
  have C2 := fun W => dec_at ⟨#[9]⟩ 1 (by decide) (by decide +kernel) W
  go_enter Try.func14, Try.ntmps14
  go_upto_region 2 with (go_at_call 28; refine (CT _).mono ?_; rintro e w2 ⟨rfl, hbel⟩)
  go_upto_region 3 with (first | (go_at_call 18; refine (C1 _).mono ?_; rintro e w3 ⟨m1, rfl, _, _, _, hb⟩; have hbel := hbel.trans (hb.mono hbel.size); clear hb) | (refine wpList_storeRowTo (Z := m1.row) rfl (.tmp 3) (.tmp 13) 34 rfl (by rw [MsgV.row_size]; kernel_rfl) rfl (by rfl) (heap_push _ _ _) (by rw [MsgV.row_size]; rfl) (MsgV.row_one _) ?_))
  refine wp_nameE _ (fun W3 hX => ?_)
  have hbel : Below w.heap.size w W3 := by rw [hX]; exact hbel.trans ((below_setRow (Below.alloc (Below.refl _ _) (Nat.le_refl _) _) (Nat.le_refl _) _).mono hbel.size)
  clear hX
  go_upto_region 4 with (first | (go_at_call 18; refine (C2 _).mono ?_; rintro e w4 ⟨m2, rfl, _, _, _, hb⟩; have hbel := hbel.trans (hb.mono hbel.size); clear hb) | (refine wpList_storeRowTo (Z := m2.row) rfl (.tmp 5) (.tmp 17) 34 rfl (by rw [MsgV.row_size]; kernel_rfl) rfl (by rfl) (heap_push _ _ _) (by rw [MsgV.row_size]; rfl) (MsgV.row_one _) ?_))
  refine wp_nameE _ (fun W4 hX => ?_)
  have hbel : Below w.heap.size w W4 := by rw [hX]; exact hbel.trans ((below_setRow (Below.alloc (Below.refl _ _) (Nat.le_refl _) _) (Nat.le_refl _) _).mono hbel.size)
  clear hX
  go_wp2
  go_ret
  exact ⟨rfl, hbel⟩
end Go.Proofs.Ythipnkbfdkmhaaa
