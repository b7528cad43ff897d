/- 'Rows.BatchCutsSaid': for every input the law returns true, and each argument reads behind the call as before. No condition. -/
import Derived.Test.YthipnkbfdkmhaaaRows
import Derived.Test.YthipnkbfdkmhaaaSK
import Derived.Test.YthipnkbfdkmhaaaSJ
import Derived.WalkKit
import Derived.ProofKit
import Derived.OpenShut
import Derived.ShutString
import Derived.ChangeOld
import Derived.Below
namespace Go.Proofs.Ythipnkbfdkmhaaa.batchCuts
open Go.ChangeShapes Go.WideShapes Go.ChangeAt Go.RowKit
open Go.ChangeMaps (open_string shut_string)
set_option linter.unusedVariables false
theorem own : ownKnob Try.prog.godebug = none := by kernel_rfl
theorem laidOut : laidOutB Try.prog = true := by kernel_rfl
set_option maxRecDepth 100000 in
theorem lifted (os : Os) (started : os.Started) (H : Type) (enc : TypeId × Value → H) :
    ReturnsInHanded {} Try.checked os 10 .any (Rows.batchCutsSpec.pre6 enc Try.prog Try.f10 Rows.batchCutsRow.domain false) (Rows.batchCutsSpec.post enc Try.prog Try.f10 false true false false) := by
  refine returnsInHanded_of_change (C := Try.checked) own started (by kernel_rfl) Try.func10
    (ChangeSpec.witness6 (enc := enc) (C := Try.checked) false ⟨#[], #[.agg #[.int .i64 0, .int .i64 0, .int .i64 0], .slice none 0 0, .slice none 0 0, .slice none 0 0], []⟩ 8 (by kernel_rfl) (by kernel_rfl) (by kernel_rfl) (by kernel_rfl)) ?_
  intro W base args ds gs before hval0 hW hcnd _
  have hval : ∀ (j : Nat) t v, Try.f10.params[j]? = some t → args[j]? = some v → Value.okWide Try.prog W .any base t v := hval0
  have hW' := hW
  obtain ⟨p, q, hA0, hV, rfl, hfz, hnd⟩ := hW
  have hA : DataW.TrodAll enc Try.prog W 0 (fun _ => true) true Try.f10.params.toList args.toList ds p := hA0
  rw [Try.params10] at hA hval
  obtain ⟨v0, vs0, d0, ds0, p0, q0, hargs, rfl, rfl, h0, r0⟩ := trodAll_cons hA
  obtain ⟨v1, vs1, d1, ds1, p1, q1, rfl, rfl, rfl, h1, r1⟩ := trodAll_cons r0
  obtain ⟨v2, vs2, d2, ds2, p2, q2, rfl, rfl, rfl, h2, r2⟩ := trodAll_cons r1
  obtain ⟨v3, vs3, d3, ds3, p3, q3, rfl, rfl, rfl, h3, r3⟩ := trodAll_cons r2
  obtain ⟨rfl, rfl, rfl⟩ := trodAll_nil r3
  obtain rfl : args = #[v0, v1, v2, v3] := by cases args; simp_all
  obtain ⟨rfl, rfl⟩ := trodVars_none hV
  have k0 := h0
  have lt0 : ∀ x ∈ p0, x.block < W.heap.size := by obtain ⟨m, hm⟩ := k0; exact DataW.trod_lt m _ _ _ hm
  obtain ⟨l0, rfl, hl0, hr0⟩ := open_rec Try.underlying58 (hval 0 58 v0 rfl rfl) h0
  obtain ⟨lg0, lb0, lc0, rfl⟩ := lim_open hl0 hr0
  obtain ⟨a1, len1, cap1, rfl⟩ := okWide_slice Try.underlying48 (hval 1 48 v1 rfl rfl)
  have k1 := h1
  have lt1 : ∀ x ∈ p1, x.block < W.heap.size := by obtain ⟨m, hm⟩ := k1; exact DataW.trod_lt m _ _ _ hm
  obtain ⟨z1, w1, n1, l1, m1, q1⟩ : ∃ ps : List MsgV, RowAt W a1 (ps.flatMap MsgV.L) ∧ ps.length = len1 ∧ len1 ≤ cap1 ∧ cap1 ≤ maxLen ∧ ∀ p ∈ ps, p.ok W := by
    obtain ⟨fuel, hf⟩ := h1
    obtain ⟨a, len, cap, hcs, hl, hm, rows, hrl, hrow, hr⟩ := open_recs Try.underlying48 hf
    simp [Value.cells] at hcs; obtain ⟨rfl, rfl, rfl⟩ := hcs
    obtain ⟨ps, e, hpl, hq⟩ := recs_ofP MsgV.L (fun m => m.ok W) rows (fun r hr' => msg_open (hr r hr').1 (hr r hr').2)
    exact ⟨ps, by rw [← e]; exact hrow, by omega, hl, hm, hq⟩
  have qn1 : a1 = none → len1 = 0 ∧ cap1 = 0 := by obtain ⟨fuel, hf⟩ := k1; exact nil_cap (by simp [Value.cells]) Try.underlying48 hf
  obtain ⟨a2, len2, cap2, rfl⟩ := okWide_slice Try.underlying48 (hval 2 48 v2 rfl rfl)
  have k2 := h2
  have lt2 : ∀ x ∈ p2, x.block < W.heap.size := by obtain ⟨m, hm⟩ := k2; exact DataW.trod_lt m _ _ _ hm
  obtain ⟨z2, w2, n2, l2, m2, q2⟩ : ∃ ps : List MsgV, RowAt W a2 (ps.flatMap MsgV.L) ∧ ps.length = len2 ∧ len2 ≤ cap2 ∧ cap2 ≤ maxLen ∧ ∀ p ∈ ps, p.ok W := by
    obtain ⟨fuel, hf⟩ := h2
    obtain ⟨a, len, cap, hcs, hl, hm, rows, hrl, hrow, hr⟩ := open_recs Try.underlying48 hf
    simp [Value.cells] at hcs; obtain ⟨rfl, rfl, rfl⟩ := hcs
    obtain ⟨ps, e, hpl, hq⟩ := recs_ofP MsgV.L (fun m => m.ok W) rows (fun r hr' => msg_open (hr r hr').1 (hr r hr').2)
    exact ⟨ps, by rw [← e]; exact hrow, by omega, hl, hm, hq⟩
  obtain ⟨a3, len3, cap3, rfl⟩ := okWide_slice Try.underlying59 (hval 3 59 v3 rfl rfl)
  have k3 := h3
  have lt3 : ∀ x ∈ p3, x.block < W.heap.size := by obtain ⟨m, hm⟩ := k3; exact DataW.trod_lt m _ _ _ hm
  obtain ⟨z3, w3⟩ : ∃ zs, IntsAt W a3 len3 zs := by
    obtain ⟨fuel, hf⟩ := h3
    rcases open_ints Try.underlying59 Try.underlying3 (by kernel_rfl) hf with ⟨hcs, _⟩ | ⟨x, l, c, zs, hcs, _, hl, hm, hz, _, hcell, hwz⟩
    · simp [Value.cells] at hcs; obtain ⟨rfl, rfl, rfl⟩ := hcs; exact ⟨_, intsAt_of (.inl ⟨rfl, rfl, rfl, rfl⟩)⟩
    · simp [Value.cells] at hcs; obtain ⟨rfl, rfl, rfl⟩ := hcs; exact ⟨_, intsAt_of (.inr ⟨_, rfl, hl, hm, by simpa using hz, hcell, hwz⟩)⟩
  clear hA0 hval0
  refine (walkBatchCuts lg0 lb0 lc0 a1 len1 cap1 z1 a2 len2 cap2 z2 a3 len3 cap3 z3 W w1 n1 l1 m1 q1 qn1 w2 n2 l2 m2 q2 w3).mono fun e W' ⟨he, bel⟩ => ?_
  subst he
  exact ⟨_, rfl, _, _, _, [], _, [], hW', trodAll_mk1 (shut_bool Try.underlying4 _), (trodAll_cons_mk (Below.trod laidOut (by kernel_rfl) (of_decide_eq_true (by kernel_rfl)) k0 bel lt0) (trodAll_cons_mk (Below.trod laidOut (by kernel_rfl) (of_decide_eq_true (by kernel_rfl)) k1 bel lt1) (trodAll_cons_mk (Below.trod laidOut (by kernel_rfl) (of_decide_eq_true (by kernel_rfl)) k2 bel lt2) (trodAll_cons_mk (Below.trod laidOut (by kernel_rfl) (of_decide_eq_true (by kernel_rfl)) k3 bel lt3) trodAll_mk0)))), rfl, bel.frame _, fun h => by cases h⟩
theorem over : Rows.batchCutsRow.holds Try.pinned (OpenSpec.ofChange Rows.batchCutsSpec) :=
  OpenClaim.holds_of_wide 10 Try.f10 rfl rfl rfl rfl rfl rfl rfl ⟨rfl, rfl, rfl, rfl, rfl⟩ rfl rfl rfl rfl rfl (by kernel_rfl) Try.func10 (by kernel_rfl)
    (of_decide_eq_true (by kernel_rfl)) (by unfold Func.isWrapper; first | (rw [if_pos (by decide +kernel)]; kernel_rfl) | (rw [if_neg (by decide +kernel)]; exact ⟨rfl, rfl⟩))
    (fun os started H enc _ => lifted os started H enc)
/-- THE STATEMENT -/
theorem proved : Rows.BatchCutsSaid := over
end Go.Proofs.Ythipnkbfdkmhaaa.batchCuts
