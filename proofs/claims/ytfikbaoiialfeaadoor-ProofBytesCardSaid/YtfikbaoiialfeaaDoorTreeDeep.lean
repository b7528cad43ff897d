/- TreeDeep, walked; what the chapter's examples fix. -/
import Derived.Test.YtfikbaoiialfeaaDoorTree
import Derived.Test.YtfikbaoiialfeaaDoorTreeN
import Derived.WalkKit
import Derived.ProofKit
import Derived.Handy
import Derived.Below
import Derived.Lib.Hide
import Derived.IntWalk
import Derived.Outline
import Derived.WalkLawsBesides
import Derived.WalkSpells
namespace Go.Proofs.YtfikbaoiialfeaaDoor
open Go.RowKit
attribute [local go_sem] strV
set_option linter.unusedVariables false
theorem half5 : halfI 5 = 4 := by decide +kernel
theorem half4 : halfI 4 = 2 := by decide +kernel
theorem half1 : halfI 1 = 0 := by decide +kernel
theorem deep54 : deepI 5 4 = 1 := by decide +kernel
theorem deep50 : deepI 5 0 = 3 := by decide +kernel
set_option maxRecDepth 100000 in
set_option maxHeartbeats 6400000 in
theorem first6_any (w : World) (hW : SW w) :
    Calls Tryd.prog 9 #[] w fun e w' => e = .returned (.bool true) ∧ Below w.heap.size w w' := by
  have hbel : Below w.heap.size w w := Below.refl _ _
  have C1 := fun W => half2_any 5 W
  have C2 := fun W => half2_any 4 W
  have C3 := fun W => half2_any 1 W
  have C4 := fun W => deep_any 5 4 W
  have C5 := fun W => deep_any 5 0 W
  rw [half5] at C1; rw [half4] at C2; rw [half1] at C3; rw [deep54] at C4; rw [deep50] at C5
  have C6 := fun W h => root_any 0 z32 W h rfl
  have C7 := fun W => refRoot_any 0 z32 W rfl
  obtain ⟨R, hR⟩ : ∃ R, rootF 0 z32 = R := ⟨_, rfl⟩
  have hRl : R.length = 32 := by rw [← hR]; exact rootF_len _ _
  rw [hR] at C6 C7
  rw [show hrow z32 = #[Value.int .u8 0, Value.int .u8 0, Value.int .u8 0, Value.int .u8 0, Value.int .u8 0, Value.int .u8 0, Value.int .u8 0, Value.int .u8 0, Value.int .u8 0, Value.int .u8 0, Value.int .u8 0, Value.int .u8 0, Value.int .u8 0, Value.int .u8 0, Value.int .u8 0, Value.int .u8 0, Value.int .u8 0, Value.int .u8 0, Value.int .u8 0, Value.int .u8 0, Value.int .u8 0, Value.int .u8 0, Value.int .u8 0, Value.int .u8 0, Value.int .u8 0, Value.int .u8 0, Value.int .u8 0, Value.int .u8 0, Value.int .u8 0, Value.int .u8 0, Value.int .u8 0, Value.int .u8 0] from rfl] at C6 C7
  clear hR
  have hEQ : ∀ V : World, (Op.equalIn 10000 25 (.agg (hrow R)) (.agg (hrow R))).run Tryd.prog V = .ok true V := fun V => by
    rw [run_equal_hash V 25 R R hRl hRl Tryd.underlying25 Tryd.underlying5 (by kernel_rfl)]; simp
  go_enter Tryd.func9, Tryd.ntmps9
  go_wp2_with (first | (go_at_call 18; first | (with_reducible refine (C1 _).mono ?_; rintro e w1 ⟨rfl, hb⟩; have hbel := hbel.trans (hb.mono hbel.size); have hW := hW.below hb; clear hb) | (with_reducible refine (C2 _).mono ?_; rintro e w1 ⟨rfl, hb⟩; have hbel := hbel.trans (hb.mono hbel.size); have hW := hW.below hb; clear hb) | (with_reducible refine (C3 _).mono ?_; rintro e w1 ⟨rfl, hb⟩; have hbel := hbel.trans (hb.mono hbel.size); have hW := hW.below hb; clear hb)) | (go_at_call 25; first | (with_reducible refine (C4 _).mono ?_; rintro e w1 ⟨rfl, hb⟩; have hbel := hbel.trans (hb.mono hbel.size); have hW := hW.below hb; clear hb) | (with_reducible refine (C5 _).mono ?_; rintro e w1 ⟨rfl, hb⟩; have hbel := hbel.trans (hb.mono hbel.size); have hW := hW.below hb; clear hb)) | (go_at_call 16; refine (C6 _ hW).mono ?_; rintro e w1 ⟨rfl, hb⟩; have hbel := hbel.trans (hb.mono hbel.size); have hW := hW.below hb; clear hb) | (go_at_call 17; refine (C7 _).mono ?_; rintro e w1 ⟨rfl, hb⟩; have hbel := hbel.trans (hb.mono hbel.size); have hW := hW.below hb; clear hb))
  go_ret
  exact ⟨rfl, hbel⟩
theorem and_half (n : Nat) (h : n ≤ 1073741824) (h2 : 2 ≤ n) : bits .and .i64 ((halfN n : Nat) : Int) (((halfN n : Nat) : Int) - 1) = 0 := by
  have hp := halfN_pos n
  have hl := halfN_lt h2
  have ha := halfN_and (n := n)
  rw [show (((halfN n : Nat) : Int) - 1) = ((halfN n - 1 : Nat) : Int) by omega]
  rw [i64_and_nat (halfN n) (halfN n - 1) (by omega) (by omega), ha]; rfl
end Go.Proofs.YtfikbaoiialfeaaDoor
