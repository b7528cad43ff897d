/- 'Rows.ProofForgedCardSaid': for every input the law returns true, and each argument reads behind the call as before. The package-level variables that the row lists start as the program's text lays them (the card ties them). -/
import Derived.Test.YtfikbaoiialfeaaDoorRows
import Derived.Test.YtfikbaoiialfeaaDoorPg
import Derived.Test.YtfikbaoiialfeaaDoorPfOpen
import Derived.WalkKit
import Derived.ProofKit
import Derived.OpenShut
import Derived.ShutString
import Derived.ChangeOld
import Derived.Below
import Derived.Test.YtfikbaoiialfeaaDoorCards
import Derived.Test.YtfikbaoiialfeaaDoorTie
import Derived.LaidMore
import Derived.Lay
import Derived.SevenTiedAt
import Derived.Stop.Joined
import Derived.Test.YtfikbaoiialfeaaDoorShaWrap
namespace Go.Proofs.YtfikbaoiialfeaaDoor.proofForged
open Go.ChangeShapes Go.WideShapes Go.ChangeAt Go.RowKit
open Go.ChangeMaps (open_string shut_string)
set_option linter.unusedVariables false
theorem own : ownKnob Tryd.prog.godebug = none := by kernel_rfl
theorem laidOut : laidOutB Tryd.prog = true := by kernel_rfl
set_option maxRecDepth 100000 in
theorem lifted (os : Os) (started : os.Started) (H : Type) (enc : TypeId × Value → H) :
    ReturnsInHanded {} Tryd.checked os 8 .any (fun w args => (Rows.proofForgedSpec.pre enc Tryd.prog Tryd.f8 Rows.proofForgedRow.domain false w args ∧ laidMetH Tryd.prog (Rows.proofForgedRow.laid) w) ∧ sizedMet enc Tryd.prog Tryd.f8 (OpenSpec.ofChange Rows.proofForgedSpec) false w args)
      (Rows.proofForgedSpec.post enc Tryd.prog Tryd.f8 false true false false) := by
  refine returnsInHanded_of_change_and (C := Tryd.checked) (X := fun w _ => laidMetH Tryd.prog (Rows.proofForgedRow.laid) w) (fun _ _ _ hh h => h.of_heap hh) own started (by kernel_rfl) Tryd.func8
    (ChangeSpec.witness_shaped (enc := enc) (C := Tryd.checked) (os := os) (X := fun w _ => laidMetH Tryd.prog (Rows.proofForgedRow.laid) w) false (World.laidAll Tryd.prog os (Rows.proofForgedRow.laid)) #[.slice none 0 0, .string ByteArray.empty, .agg #[.int .i64 0, .slice none 0 0]] 8 (World.laidAll_os _ _ _)
      (World.shaped_of_ZipB (by kernel_rfl) (by kernel_rfl)) (by kernel_rfl) (by kernel_rfl) (by kernel_rfl)
      (by rw [MakeChecks.laidMetH_plain _ _ _ (by kernel_rfl)]; exact laidMet_laidAll _ (by kernel_rfl) (by kernel_rfl))) ?_
  intro W base args ds gs before hval0 hW hcnd _ hLaid _
  have hval : ∀ (j : Nat) t v, Tryd.f8.params[j]? = some t → args[j]? = some v → Value.okWide Tryd.prog W .any base t v := hval0
  have hW' := hW
  obtain ⟨p, q, hA0, hV, rfl, hfz, hnd⟩ := hW
  have hA : DataW.TrodAll enc Tryd.prog W 0 (fun _ => true) true Tryd.f8.params.toList args.toList ds p := hA0
  rw [Tryd.params8] at hA hval
  obtain ⟨v0, vs0, d0, ds0, p0, q0, hargs, rfl, rfl, h0, r0⟩ := trodAll_cons hA
  obtain ⟨v1, vs1, d1, ds1, p1, q1, rfl, rfl, rfl, h1, r1⟩ := trodAll_cons r0
  obtain ⟨v2, vs2, d2, ds2, p2, q2, rfl, rfl, rfl, h2, r2⟩ := trodAll_cons r1
  obtain ⟨rfl, rfl, rfl⟩ := trodAll_nil r2
  obtain rfl : args = #[v0, v1, v2] := by cases args; simp_all
  obtain ⟨rfl, rfl⟩ := trodVars_none hV
  obtain ⟨a0, len0, cap0, rfl⟩ := okWide_slice Tryd.underlying38 (hval 0 38 v0 rfl rfl)
  have k0 := h0
  have lt0 : ∀ x ∈ p0, x.block < W.heap.size := by obtain ⟨m, hm⟩ := k0; exact DataW.trod_lt m _ _ _ hm
  obtain ⟨z0, w0, n0, l0, m0, q0⟩ : ∃ ps : List Pr, RowAt W a0 (ps.flatMap Pr.cells) ∧ ps.length = len0 ∧ len0 ≤ cap0 ∧ cap0 ≤ maxLen ∧ ∀ p ∈ ps, p.k.size ≤ maxLen ∧ p.v.size ≤ maxLen := by
    obtain ⟨fuel, hf⟩ := h0
    obtain ⟨a, len, cap, hcs, hl, hm, rows, hrl, hrow, hr⟩ := open_recs Tryd.underlying38 hf
    simp [Value.cells] at hcs; obtain ⟨rfl, rfl, rfl⟩ := hcs
    obtain ⟨ps, e, hpl, hq⟩ := recs_ofP Pr.cells (fun p => p.k.size ≤ maxLen ∧ p.v.size ≤ maxLen) rows (fun r hr' => pair_open (hr r hr').1 (hr r hr').2)
    exact ⟨ps, by rw [← e]; exact hrow, by omega, hl, hm, hq⟩
  obtain ⟨a1, rfl, rfl, rfl, w1⟩ := open_string Tryd.underlying9 (hval 1 9 v1 rfl rfl) h1
  have k2 := h2
  have lt2 : ∀ x ∈ p2, x.block < W.heap.size := by obtain ⟨m, hm⟩ := k2; exact DataW.trod_lt m _ _ _ hm
  obtain ⟨l2, rfl, hl2, hr2⟩ := open_rec Tryd.underlying46 (hval 2 46 v2 rfl rfl) h2
  obtain ⟨ct2, a2, len2, cap2, z2, rfl, w2, n2, c2, m2⟩ := pf_open hl2 hr2
  clear hA0 hval0
  refine (walkProofForged a0 len0 cap0 z0 a1 ct2 a2 len2 cap2 z2 W (sw_of hLaid) w0 n0 l0 m0 q0 w1 w2 n2 c2 m2).mono fun e W' ⟨he, bel⟩ => ?_
  subst he
  exact ⟨_, rfl, _, _, _, [], _, [], hW', trodAll_mk1 (shut_bool Tryd.underlying4 _), (trodAll_cons_mk (Below.trod laidOut (by kernel_rfl) (of_decide_eq_true (by kernel_rfl)) k0 bel lt0) (trodAll_cons_mk (shut_string Tryd.underlying9 w1) (trodAll_cons_mk (Below.trod laidOut (by kernel_rfl) (of_decide_eq_true (by kernel_rfl)) k2 bel lt2) trodAll_mk0))), rfl, bel.frame _, fun h => by cases h⟩
theorem over : Rows.proofForgedRow.holds Tryd.pinned (OpenSpec.ofChange Rows.proofForgedSpec) :=
  OpenClaim.holds_of_wide 8 Tryd.f8 rfl rfl rfl rfl rfl rfl rfl ⟨rfl, rfl, rfl, rfl, rfl⟩ rfl rfl rfl rfl rfl (by kernel_rfl) Tryd.func8 (by kernel_rfl)
    (of_decide_eq_true (by kernel_rfl)) (by unfold Func.isWrapper; first | (rw [if_pos (by decide +kernel)]; kernel_rfl) | (rw [if_neg (by decide +kernel)]; exact ⟨rfl, rfl⟩))
    (fun os started H enc _ => lifted os started H enc)
/-- THE STATEMENT -/
theorem proved : Rows.ProofForgedCardSaid :=
  Claim7.holds_tied_plain_at .later [] [.data, .data] true (true, "1bb117afa347b6b3c41767b6d561f167091ff2edc6b3d1608c2e7b1089f7cd02") false over (fun _ h => by cases h) (by kernel_rfl) (fun _ h => by cases h) proofForged_row_tie rfl ⟨rfl, rfl⟩ (by kernel_rfl) rfl
    (fun f fn hf hfn => by
      obtain rfl : f = 8 := Option.some.inj ((show Tryd.prog.funcNamed "lighterman/liglaw7.ProofForged" = some 8 by kernel_rfl).symm.trans hf) |>.symm
      obtain rfl : fn = Tryd.f8 := (Option.some.inj (Tryd.func8.symm.trans hfn)).symm
      exact ⟨by kernel_rfl, fun j t ht => by
        rw [Tryd.params8] at ht
        have hm : t ∈ [38, 9, 46] := by simpa using Array.mem_of_getElem? ht
        have hall : ([38, 9, 46].all fun u => !Tryd.prog.wantsStandIn u) = true := by kernel_rfl
        exact (show Tryd.prog.wantsStandIn t = false by simpa using List.all_eq_true.1 hall t hm)⟩)
    (by kernel_rfl)
end Go.Proofs.YtfikbaoiialfeaaDoor.proofForged
