/- TxTells walked. -/
import Derived.Test.YthipnkbfdkmhaaaGL
import Derived.Test.YthipnkbfdkmhaaaTx4
import Derived.Test.YthipnkbfdkmhaaaMsg13
import Derived.Test.YthipnkbfdkmhaaaGG
import Derived.Deep.MidRow
import Derived.WalkKit
import Derived.ProofKit
import Derived.Handy
import Derived.Below
import Derived.Lib.Hide
import Derived.IntWalk
import Derived.Outline
import Derived.WalkLawsBesides
import Derived.WalkSpells
namespace Go.Proofs.Ythipnkbfdkmhaaa
open Go.RowKit
attribute [local go_sem] strV
set_option linter.unusedVariables false
set_option maxRecDepth 100000 in
set_option maxHeartbeats 12800000 in
theorem walkTxTells (a : Option Addr) (n cap : Nat) (ms : List MsgV) (s : ByteArray) (w : World) (hr : RowAt w a (ms.flatMap MsgV.cellsL)) (hn : ms.length = n) (hcap : n ≤ cap) (hcm : cap ≤ maxLen) (hok : ∀ m ∈ ms, m.ok w) (hs : s.size ≤ maxLen) :
    Calls Try.prog 6 #[.slice a n cap, .string s] w fun e w' => e = .returned (.bool true) ∧ Below w.heap.size w w' := by
  have CL := fun W (hb : Below w.heap.size w W) => lightMs_any a n cap ms W (hr.below hb) (fun m hm => (hok m hm).below hb) hn
  have CT := fun W (hb : Below w.heap.size w W) => msgTx_any a n cap ms W (hr.below hb) (fun m hm => (hok m hm).below hb) hn
  have CR := fun W (hb : Below w.heap.size w W) => refTx_any a n cap ms W (hr.below hb) (fun m hm => (hok m hm).below hb) hn
  obtain ⟨kl, el⟩ : ∃ b, lightMs ms = b := ⟨_, rfl⟩
  simp only [el] at CL
  obtain ⟨⟨B, E⟩, hX⟩ : ∃ x, encTx ms = x := ⟨_, rfl⟩
  simp only [hX] at CT CR
  clear el hX hn
  have hbel := Below.refl w.heap.size w
  go_enter Try.func6, Try.ntmps6
  go_upto_region 3 with (go_at_call 14; refine (first8_any _).mono ?_; rintro e w2 ⟨rfl, hb⟩; have hbel := hbel.trans (hb.mono hbel.size); clear hb)
  cases kl
  · go_wp2_with (first | (go_at_call 14; refine (first8_any _).mono ?_; rintro e w2 ⟨rfl, hb⟩; have hbel := hbel.trans (hb.mono hbel.size); clear hb) | (go_at_call 27; refine (CL _ hbel).mono ?_; rintro e w2 ⟨rfl, hb⟩; have hbel := hbel.trans (hb.mono hbel.size); clear hb))
    go_ret
    exact ⟨by first | rfl | simp, hbel⟩
  by_cases c2 : 8000 < s.size
  · have d2 : decide (8000 < (s.size : Int)) = true := decide_eq_true (by omega)
    go_wp2_with (first | (go_at_call 14; refine (first8_any _).mono ?_; rintro e w2 ⟨rfl, hb⟩; have hbel := hbel.trans (hb.mono hbel.size); clear hb) | (go_at_call 27; refine (CL _ hbel).mono ?_; rintro e w2 ⟨rfl, hb⟩; have hbel := hbel.trans (hb.mono hbel.size); clear hb))
    go_ret
    exact ⟨by first | rfl | simp, hbel⟩
  have d2 : decide (8000 < (s.size : Int)) = false := decide_eq_false (by omega)
  have CU := fun W => msgUntx_any s W (by omega)
  have CV := fun W => refUntx_any s W (by omega)
  unfold untxPost at CU CV
  obtain ⟨⟨D, f9⟩, hD⟩ : ∃ x, decTx s = x := ⟨_, rfl⟩
  simp only [hD] at CU CV
  clear hD
  go_upto_region 7 with (first | (go_at_call 14; refine (first8_any _).mono ?_; rintro e w2 ⟨rfl, hb⟩; have hbel := hbel.trans (hb.mono hbel.size); clear hb) | (go_at_call 27; refine (CL _ hbel).mono ?_; rintro e w2 ⟨rfl, hb⟩; have hbel := hbel.trans (hb.mono hbel.size); clear hb) | (go_at_call 28; refine (CT _ hbel).mono ?_; rintro e w2 ⟨rfl, hb⟩; have hbel := hbel.trans (hb.mono hbel.size); clear hb) | (go_at_call 29; refine (CR _ hbel).mono ?_; rintro e w2 ⟨rfl, hb⟩; have hbel := hbel.trans (hb.mono hbel.size); clear hb))
  go_upto_region 8 with (go_at_call 30; refine (CU _).mono ?_; rintro e w4 ⟨a4, n4, c4, xs, rfl, hxl, hxd, hxr, hxo, hxc, hxm, hb⟩; have hbel := hbel.trans (hb.mono hbel.size); clear hb)
  go_upto_region 9 with (go_at_call 31; refine (CV _).mono ?_; rintro e w5 ⟨a5, n5, c5, ys, rfl, hyl, hyd, hyr, hyo, hyc, hym, hb⟩; have hxr := hxr.below hb; have hxo := (fun m hm => (hxo m hm).below hb); have hbel := hbel.trans (hb.mono hbel.size); clear hb)
  refine wp_nameE _ (fun W9 hX => ?_)
  have CS : ∀ W (hb : Below W9.heap.size W9 W), Calls Try.prog 32 #[.slice a4 n4 c4, .slice a5 n5 c5] W fun e w' => e = .returned (.bool true) ∧ Below W.heap.size W w' := fun W hb => by
    rw [hX] at hb
    have := msgs_any a4 a5 n4 n5 c4 c5 xs ys W (hxr.below hb) (hyr.below hb) (fun m hm => (hxo m hm).below hb) (fun m hm => (hyo m hm).below hb) hxl hyl (Nat.le_trans hxc hxm)
    rwa [(msgsB_iff _ _).2 (by rw [hxd, hyd])] at this
  rw [← hX] at hbel
  clear hX CU CV hxr hxo hyr hyo hxd hyd hxl hyl
  have hb0 := Below.refl W9.heap.size W9
  go_wp2_with (go_at_call 32; refine (CS _ hb0).mono ?_; rintro e wx ⟨rfl, hb⟩; have hbel := hbel.trans (hb.mono hbel.size); clear hb)
  go_ret
  exact ⟨by first | rfl | simp, hbel⟩
end Go.Proofs.Ythipnkbfdkmhaaa
