/- LifeSides walked. -/
import Derived.Test.YtbckncopdkmoeaaLf9
import Derived.Test.YtbckncopdkmoeaaLfT
import Derived.Test.YtbckncopdkmoeaaEv4
import Derived.Deep.Cut
import Derived.BigRegion
import Derived.RegionTactic
import Derived.BigQuiet
import Derived.Deep.QuietTactic
import Derived.Deep.MidRow
import Derived.Deep.RegionLaw
import Derived.OneCell
import Derived.Laws.OwnMore
import Derived.Deep.RegionHeld
import Derived.WalkKit
import Derived.ProofKit
import Derived.Handy
import Derived.Below
import Derived.Lib.Hide
import Derived.IntWalk
import Derived.Outline
import Derived.WalkLawsBesides
import Derived.WalkSpells
namespace Go.Proofs.Ytbckncopdkmoeaa
open Go.RowKit
attribute [local go_sem] strV
set_option linter.unusedVariables false
set_option linter.unusedSimpArgs false
theorem foldF_ok {f : Lk → Option Ent} {e : Ev} (h : mayEv e = true) (hp : hasP e.kd = true) (h0 : foldE f e = 0) : foldF f e = setF f (keyE e) (foldR f e) := by unfold foldF; rw [if_pos ⟨h, hp, h0⟩]
theorem foldA_pk {f : Lk → Option Ent} {cl : ByteArray → Int → Bool} {e : Ev} (h : mayEv e = true) (h7 : e.kd ≠ 7) (h6 : e.kd ≠ 6) : foldA f cl e = foldE f e := by unfold foldA; rw [if_pos h, if_neg h7, if_neg h6]
theorem side_may {sp : ByteArray} {sc : Int} {dp : ByteArray} {dc sq : Int} {da : ByteArray} {th ta : Int} {ack : ByteArray} (h : mayEv ⟨3, dp, dc, sp, sc, sq, da, th, ta, ack, ⟨#[]⟩, 0, 0⟩ = true) : mayEv ⟨1, sp, sc, dp, dc, sq, da, th, ta, ⟨#[]⟩, ⟨#[]⟩, 0, 0⟩ = true := by
  have hk := may_mayK h rfl
  simp only at hk
  have hk2 : mayK sp sc dp dc sq da th ta = true := by
    unfold mayK at hk ⊢
    simp only [Bool.and_eq_true] at hk ⊢
    obtain ⟨⟨⟨⟨⟨⟨⟨⟨h1, h2⟩, h3⟩, h4⟩, h5⟩, h6⟩, h7⟩, h8⟩, h9⟩ := hk
    exact ⟨⟨⟨⟨⟨⟨⟨⟨h2, h1⟩, h3⟩, h4⟩, h5⟩, h6⟩, h7⟩, h8⟩, h9⟩
  have hb : bodyE ⟨1, sp, sc, dp, dc, sq, da, th, ta, ⟨#[]⟩, ⟨#[]⟩, 0, 0⟩ = true := by
    unfold bodyE
    rw [if_neg (fun h => absurd (show (1 : Int) = 6 from h) (by decide)), if_neg (fun h => absurd (show (1 : Int) = 7 from h) (by decide)), if_neg (fun h => absurd (show (1 : Int) = 3 from h) (by decide)), Bool.and_eq_true]
    exact ⟨rfl, hk2⟩
  unfold mayEv
  rw [hb, Bool.and_true]
  unfold evB plainE
  simp [hasP]
theorem sides_all (sp : ByteArray) (sc : Int) (dp : ByteArray) (dc sq : Int) (da : ByteArray) (th ta : Int) (ack : ByteArray) (h : mayEv ⟨3, dp, dc, sp, sc, sq, da, th, ta, ack, ⟨#[]⟩, 0, 0⟩ = true) (cl cl2 : ByteArray → Int → Bool) :
    foldA (fun _ => none) cl ⟨1, sp, sc, dp, dc, sq, da, th, ta, ⟨#[]⟩, ⟨#[]⟩, 0, 0⟩ = 0 ∧ foldA (foldF (fun _ => none) ⟨1, sp, sc, dp, dc, sq, da, th, ta, ⟨#[]⟩, ⟨#[]⟩, 0, 0⟩) cl2 ⟨3, dp, dc, sp, sc, sq, da, th, ta, ack, ⟨#[]⟩, 0, 0⟩ = 0 ∧ stgF (foldF (foldF (fun _ => none) ⟨1, sp, sc, dp, dc, sq, da, th, ta, ⟨#[]⟩, ⟨#[]⟩, 0, 0⟩) ⟨3, dp, dc, sp, sc, sq, da, th, ta, ack, ⟨#[]⟩, 0, 0⟩ ⟨sp, sc, true, sq⟩) true = 1 ∧ stgF (foldF (foldF (fun _ => none) ⟨1, sp, sc, dp, dc, sq, da, th, ta, ⟨#[]⟩, ⟨#[]⟩, 0, 0⟩) ⟨3, dp, dc, sp, sc, sq, da, th, ta, ack, ⟨#[]⟩, 0, 0⟩ ⟨sp, sc, false, sq⟩) false = 5 ∧
    (∀ x : Lk, x.wf → ((foldF (foldF (fun _ => none) ⟨1, sp, sc, dp, dc, sq, da, th, ta, ⟨#[]⟩, ⟨#[]⟩, 0, 0⟩) ⟨3, dp, dc, sp, sc, sq, da, th, ta, ack, ⟨#[]⟩, 0, 0⟩ x).isSome = true ↔ x ∈ [(⟨sp, sc, false, sq⟩ : Lk), ⟨sp, sc, true, sq⟩])) ∧ lkLess ⟨sp, sc, false, sq⟩ ⟨sp, sc, true, sq⟩ = true ∧ (⟨sp, sc, true, sq⟩ : Lk).wf ∧ (⟨sp, sc, false, sq⟩ : Lk).wf := by
  have hs := side_may h
  have ks : keyE ⟨1, sp, sc, dp, dc, sq, da, th, ta, ⟨#[]⟩, ⟨#[]⟩, 0, 0⟩ = ⟨sp, sc, true, sq⟩ := by unfold keyE; rw [if_neg (fun h => absurd (show (1 : Int) = 2 ∨ (1 : Int) = 3 from h) (by decide))]; rfl
  have kw : keyE ⟨3, dp, dc, sp, sc, sq, da, th, ta, ack, ⟨#[]⟩, 0, 0⟩ = ⟨sp, sc, false, sq⟩ := by unfold keyE; rw [if_pos (.inr rfl)]; rfl
  have e1 : foldE (fun _ => none) ⟨1, sp, sc, dp, dc, sq, da, th, ta, ⟨#[]⟩, ⟨#[]⟩, 0, 0⟩ = 0 := by unfold foldE; rw [if_neg (by simp)]; rfl
  have f1 : foldF (fun _ => none) ⟨1, sp, sc, dp, dc, sq, da, th, ta, ⟨#[]⟩, ⟨#[]⟩, 0, 0⟩ = setF (fun _ => none) ⟨sp, sc, true, sq⟩ (foldR (fun _ => none) ⟨1, sp, sc, dp, dc, sq, da, th, ta, ⟨#[]⟩, ⟨#[]⟩, 0, 0⟩) := (foldF_ok hs rfl e1).trans (by rw [ks])
  have hne : (⟨sp, sc, false, sq⟩ : Lk) ≠ ⟨sp, sc, true, sq⟩ := fun e => by injection e with _ _ e3 _; cases e3
  have e2 : foldE (foldF (fun _ => none) ⟨1, sp, sc, dp, dc, sq, da, th, ta, ⟨#[]⟩, ⟨#[]⟩, 0, 0⟩) ⟨3, dp, dc, sp, sc, sq, da, th, ta, ack, ⟨#[]⟩, 0, 0⟩ = 0 := by
    unfold foldE
    rw [kw, f1, setF_other hne, if_neg (by simp)]; rfl
  have f2 : foldF (foldF (fun _ => none) ⟨1, sp, sc, dp, dc, sq, da, th, ta, ⟨#[]⟩, ⟨#[]⟩, 0, 0⟩) ⟨3, dp, dc, sp, sc, sq, da, th, ta, ack, ⟨#[]⟩, 0, 0⟩ = setF (foldF (fun _ => none) ⟨1, sp, sc, dp, dc, sq, da, th, ta, ⟨#[]⟩, ⟨#[]⟩, 0, 0⟩) ⟨sp, sc, false, sq⟩ (foldR (foldF (fun _ => none) ⟨1, sp, sc, dp, dc, sq, da, th, ta, ⟨#[]⟩, ⟨#[]⟩, 0, 0⟩) ⟨3, dp, dc, sp, sc, sq, da, th, ta, ack, ⟨#[]⟩, 0, 0⟩) := (foldF_ok h rfl e2).trans (by rw [kw])
  have wa := key_wf hs rfl
  have wb := key_wf h rfl
  rw [ks] at wa
  rw [kw] at wb
  refine ⟨?_, ?_, ?_, ?_, ?_, ?_, wa, wb⟩
  · exact (foldA_pk hs (fun h => absurd (show (1 : Int) = 7 from h) (by decide)) (fun h => absurd (show (1 : Int) = 6 from h) (by decide))).trans e1
  · exact (foldA_pk h (fun h => absurd (show (3 : Int) = 7 from h) (by decide)) (fun h => absurd (show (3 : Int) = 6 from h) (by decide))).trans e2
  · rw [f2, setF_other hne.symm, f1, setF_same]; rfl
  · rw [f2, setF_same]
    unfold foldR
    rw [kw, f1, setF_other hne]; rfl
  · intro x _
    rw [f2]
    by_cases hb : x = ⟨sp, sc, false, sq⟩
    · subst hb; rw [setF_same]; simp
    · rw [setF_other hb, f1]
      by_cases ha : x = ⟨sp, sc, true, sq⟩
      · subst ha; rw [setF_same]; simp
      · rw [setF_other ha]; simp [ha, hb]
  · unfold lkLess; simp
theorem exec_loadPkS {o : Oper} {a : Act} {w : World} (x : Operand) (ho : o.op = .load 74 x) (b : Nat) (hx : a.eval x = .pointer (some ⟨b, 0, none⟩)) (sp : ByteArray) (sc : Int) (dp : ByteArray) (dc sq : Int) (da : ByteArray) (th ta : Int) (hz : w.heap[b]? = some (.cells #[.string sp, .int .i64 sc, .string dp, .int .i64 dc, .int .i64 sq, .string da, .int .i64 th, .int .i64 ta] 74 (0, 0))) : (execOp a.eval o).run Try.prog w = .ok (.value (.agg #[.string sp, .int .i64 sc, .string dp, .int .i64 dc, .int .i64 sq, .string da, .int .i64 th, .int .i64 ta])) w := by
  have h1 := run_loadAt_mid (P := Try.prog) w b 0 74 [.string sp, .int .i64 sc, .string dp, .int .i64 dc, .int .i64 sq, .string da, .int .i64 th, .int .i64 ta] _ (fun j v hv => by rw [Nat.zero_add, cell_heap hz]; simpa using hv) Try.underlying74 rfl (by kernel_rfl)
  simp [execOp, ho, hx, h1, Result.andThen]
theorem exec_loadEvS {o : Oper} {a : Act} {w : World} (x : Operand) (ho : o.op = .load 76 x) (b : Nat) (hx : a.eval x = .pointer (some ⟨b, 0, none⟩)) (e : Ev) (hz : w.heap[b]? = some (.cells e.row 76 (0, 0))) : (execOp a.eval o).run Try.prog w = .ok (.value (.agg e.row)) w := by
  have h1 := run_loadAt_mid (P := Try.prog) w b 0 76 e.cells _ (fun j v hv => by rw [Nat.zero_add, cell_heap hz]; simpa [Ev.cells] using hv) Try.underlying76 rfl (by kernel_rfl)
  simp [execOp, ho, hx, h1, Result.andThen, Ev.cells]
theorem build_evS (sp : ByteArray) (sc : Int) (dp : ByteArray) (dc sq : Int) (da : ByteArray) (th ta : Int) (W : World) : (Instr.build 76 #[(0, .int .i64 1), (1, .agg #[.string sp, .int .i64 sc, .string dp, .int .i64 dc, .int .i64 sq, .string da, .int .i64 th, .int .i64 ta])]).run Try.prog W = .ok (.agg #[.int .i64 1, .string sp, .int .i64 sc, .string dp, .int .i64 dc, .int .i64 sq, .string da, .int .i64 th, .int .i64 ta, .string ⟨#[]⟩, .string ⟨#[]⟩, .int .i64 0, .int .i64 0]) W := by kernel_rfl
theorem exec_buildEvS {o : Oper} {a : Act} {w : World} (x : Operand) (ho : o.op = .build 76 #[(0, .const (.int .i64 1)), (1, x)]) (sp : ByteArray) (sc : Int) (dp : ByteArray) (dc sq : Int) (da : ByteArray) (th ta : Int) (hx : a.eval x = .agg #[.string sp, .int .i64 sc, .string dp, .int .i64 dc, .int .i64 sq, .string da, .int .i64 th, .int .i64 ta]) : (execOp a.eval o).run Try.prog w = .ok (.value (.agg #[.int .i64 1, .string sp, .int .i64 sc, .string dp, .int .i64 dc, .int .i64 sq, .string da, .int .i64 th, .int .i64 ta, .string ⟨#[]⟩, .string ⟨#[]⟩, .int .i64 0, .int .i64 0])) w := by
  have h1 := build_evS sp sc dp dc sq da th ta w
  have h0 : a.eval (.const (.int .i64 1)) = .int .i64 1 := rfl
  simp [execOp, ho, hx, h0, h1, Result.andThen]
theorem build_KA (p : ByteArray) (c : Int) (s : Int) (W : World) : (Instr.build 62 #[(0, .agg #[.string p, .int .i64 c]), (1, .bool true), (2, .int .i64 s)]).run Try.prog W = .ok (.agg #[.string p, .int .i64 c, .bool true, .int .i64 s]) W := by kernel_rfl
theorem build_KB (p : ByteArray) (c : Int) (s : Int) (W : World) : (Instr.build 62 #[(0, .agg #[.string p, .int .i64 c]), (2, .int .i64 s)]).run Try.prog W = .ok (.agg #[.string p, .int .i64 c, .bool false, .int .i64 s]) W := by kernel_rfl
theorem exec_buildKA {o : Oper} {a : Act} {w : World} (x z : Operand) (ho : o.op = .build 62 #[(0, x), (1, .const (.bool true)), (2, z)]) (p : ByteArray) (c : Int) (s : Int) (hx : a.eval x = .agg #[.string p, .int .i64 c]) (hz : a.eval z = .int .i64 s) : (execOp a.eval o).run Try.prog w = .ok (.value (.agg #[.string p, .int .i64 c, .bool true, .int .i64 s])) w := by
  have h1 := build_KA p c s w
  have h0 : a.eval (.const (.bool true)) = .bool true := rfl
  simp [execOp, ho, hx, h0, hz, h1, Result.andThen]
theorem exec_buildKB {o : Oper} {a : Act} {w : World} (x z : Operand) (ho : o.op = .build 62 #[(0, x), (2, z)]) (p : ByteArray) (c : Int) (s : Int) (hx : a.eval x = .agg #[.string p, .int .i64 c]) (hz : a.eval z = .int .i64 s) : (execOp a.eval o).run Try.prog w = .ok (.value (.agg #[.string p, .int .i64 c, .bool false, .int .i64 s])) w := by
  have h1 := build_KB p c s w
  simp [execOp, ho, hx, hz, h1, Result.andThen]
theorem own_someS {w : World} {base n size : Nat} {e : TypeId} {v : Value} {xs : List Value} (h : w.ownsRow base e size v (n + 1) xs) : ∃ g cap cur, v = .slice (some ⟨g, 0, none⟩) (n + 1) cap ∧ w.heap[g]? = some (.cells cur e (0, 0)) ∧ cur.toList.take ((n + 1) * size) = xs := by
  rcases h.2 with ⟨_, h0⟩ | ⟨g, cap, cur, hv, _, hg, _, _, _, ht⟩
  · omega
  · exact ⟨g, cap, cur, hv, hg, ht⟩
theorem range_keyS {w : World} {g n : Nat} {cur : Array Value} {k : Lk} {pre suf : List Value} (h : w.heap[g]? = some (.cells cur 62 (0, 0))) (ht : cur.toList.take n = pre ++ k.L ++ suf) : w.rangeAt g pre.length k.L := fun j v hv => by
  have hj : j < k.L.length := (List.getElem?_eq_some_iff.1 hv).1
  rw [cell_heap h]
  have h1 : (cur.toList.take n)[pre.length + j]? = some v := by
    rw [ht, List.append_assoc, List.getElem?_append_right (Nat.le_add_right _ _), Nat.add_sub_cancel_left, List.getElem?_append_left hj]; exact hv
  have h2 : pre.length + j < n := by
    rcases Nat.lt_or_ge (pre.length + j) n with h | h
    · exact h
    · rw [List.getElem?_take_eq_none h] at h1; cases h1
  rw [List.getElem?_take_of_lt h2] at h1
  rw [← Array.getElem?_toList]; exact h1
theorem range_belowS {w w' : World} {g o K : Nat} {cs : List Value} (h : w.rangeAt g o cs) (hb : Below K w w') (hg : g < K) : w'.rangeAt g o cs := fun j v hv => by
  rw [hb.cell (p := ⟨g, o + j, none⟩) hg]; exact h j v hv
theorem exec_loadLkAt {o : Oper} {a : Act} {w : World} (x : Operand) (ho : o.op = .load 62 x) (b off : Nat) (hx : a.eval x = .pointer (some ⟨b, off, none⟩)) (k : Lk) (hz : w.rangeAt b off k.L) : (execOp a.eval o).run Try.prog w = .ok (.value (.agg k.row)) w := by
  have h1 := run_loadAt_mid (P := Try.prog) w b off 62 k.L _ hz Try.underlying62 rfl (by kernel_rfl)
  simp [execOp, ho, hx, h1, Result.andThen]
  rfl
theorem setRow_othS {w : World} {g b : Nat} {X : Obj} {cs : Array Value} (h : w.heap[b]? = some X) (hne : g ≠ b) : (w.setRow g cs).heap[b]? = some X := by
  show (w.heap.modify g _)[b]? = _
  rw [Array.getElem?_modify, if_neg hne]; exact h
theorem row_one_evS {w : World} {b : Nat} {e : Ev} (h : w.heap[b]? = some (.cells e.row 76 (0, 0))) : RowAt w (some ⟨b, 0, none⟩) ([e].flatMap Ev.cells) := by
  refine .inr ⟨b, 0, rfl, (Array.getElem?_eq_some_iff.1 h).1, fun j hj => ?_⟩
  rw [Nat.zero_add, cell_heap h]
  simp [Ev.cells]
set_option maxRecDepth 100000 in
set_option maxHeartbeats 6400000 in
theorem walkLifeSides (sp : ByteArray) (sc : Int) (dp : ByteArray) (dc sq : Int) (da : ByteArray) (th ta : Int) (ack : ByteArray) (w : World) (h1 : sp.size ≤ maxLen) (h2 : dp.size ≤ maxLen) (ha : ack.size ≤ maxLen) :
    Calls Try.prog 9 #[.agg #[.string sp, .int .i64 sc, .string dp, .int .i64 dc, .int .i64 sq, .string da, .int .i64 th, .int .i64 ta], .string ack] w fun e w' => e = .returned (.bool true) ∧ Below w.heap.size w w' := by
  have CL := fun (W : World) (c : Nat) (h : W.heap[c]? = some (.cells ((⟨3, dp, dc, sp, sc, sq, da, th, ta, ack, ⟨#[]⟩, 0, 0⟩ : Ev)).row 76 (0, 0))) => lightL_any (some ⟨c, 0, none⟩) 1 1 [⟨3, dp, dc, sp, sc, sq, da, th, ta, ack, ⟨#[]⟩, 0, 0⟩] W (row_one_evS h) rfl
  have CM := fun W => refMayEv_any 3 dp dc sp sc sq da th ta ack ⟨#[]⟩ 0 0 W h2 h1 (by decide)
  obtain ⟨lb, hlb⟩ : ∃ b, lightL [(⟨3, dp, dc, sp, sc, sq, da, th, ta, ack, ⟨#[]⟩, 0, 0⟩ : Ev)] = b := ⟨_, rfl⟩
  obtain ⟨mb, hmb⟩ : ∃ b, mayEv ⟨3, dp, dc, sp, sc, sq, da, th, ta, ack, ⟨#[]⟩, 0, 0⟩ = b := ⟨_, rfl⟩
  simp only [hlb] at CL
  simp only [hmb] at CM
  clear hlb
  have hg0 := heap_push w #[.string sp, .int .i64 sc, .string dp, .int .i64 dc, .int .i64 sq, .string da, .int .i64 th, .int .i64 ta] 74
  have hbA : Below w.heap.size w (w.alloc (.cells #[.string sp, .int .i64 sc, .string dp, .int .i64 dc, .int .i64 sq, .string da, .int .i64 th, .int .i64 ta] 74)) := Below.alloc (Below.refl _ _) (Nat.le_refl _) _
  go_enter Try.func9, Try.ntmps9
  go_upto_region 4 with (go_at_call 29; refine (first22_any _).mono ?_; rintro e wa ⟨rfl, hba⟩; have hp := cells_of hg0 hba (row_lt hg0); have p0 := cell_heap hp 0; have p1 := cell_heap hp 1; have p2 := cell_heap hp 2; have p3 := cell_heap hp 3; have p4 := cell_heap hp 4; have p5 := cell_heap hp 5; have p6 := cell_heap hp 6; have p7 := cell_heap hp 7)
  refine wp_nameE _ (fun w4 hw4 => ?_)
  have hb4 : Below wa.heap.size wa w4 := by rw [hw4]; exact (Below.refl _ _).alloc (Nat.le_refl _) _
  have hi : w4.heap[wa.heap.size]? = some (.cells #[.string sp, .int .i64 sc, .string dp, .int .i64 dc, .int .i64 sq, .string da, .int .i64 th, .int .i64 ta] 74 (0, 0)) := by rw [hw4]; exact heap_push wa _ _
  clear hw4
  have hp := cells_of hp hb4 (row_lt hp)
  have hbel := (hbA.trans (hba.mono hbA.size)).trans (hb4.mono (hbA.trans (hba.mono hbA.size)).size)
  have hlt := row_lt hp
  have hnp : w.heap.size < wa.heap.size := Nat.lt_of_lt_of_le (row_lt hg0) hba.size
  clear hg0 hbA hba hb4 p0 p1 p2 p3 p4 p5 p6 p7
  refine wp_region_held_drew (S := fun W => Below wa.heap.size w4 W) (by kernel_rfl) ((Below.refl _ _).drew) (fun hS0 => ?_)
  refine wpAnyH_take (i := 0) (v := .pointer (some ⟨w.heap.size, 2, none⟩)) rfl (by kernel_rfl) (by kernel_rfl) (by kernel_rfl) (fun _ _ _ h => h) (Yields.yieldsIf (Or.inl ⟨by rfl, fun w9 => by (go_simp; first | done | with_reducible rfl | (intro h9; exfalso; omega))⟩)) hS0 ?_
  change wpAnyH _ _ _ _ _ _ _ (Act.put _ (some 16) _) _; dsimp only [Act.put]; simp only [List.setIfInBounds_toArray, List.set_cons_succ, List.set_cons_zero]
  refine wpAnyH_take (i := 1) (v := .agg #[.string dp, .int .i64 dc]) rfl (by kernel_rfl) (by kernel_rfl) (by kernel_rfl) (fun _ _ _ h => h) (Or.inl ⟨by rfl, fun w9 hS9 => by have hz := cells_of hp hS9 hnp; have z2 := cell_heap hz 2; have z3 := cell_heap hz 3; go_simp; try with_reducible rfl⟩) hS0 ?_
  change wpAnyH _ _ _ _ _ _ _ (Act.put _ (some 17) _) _; dsimp only [Act.put]; simp only [List.setIfInBounds_toArray, List.set_cons_succ, List.set_cons_zero]
  refine wpAnyH_take (i := 2) (v := .pointer (some ⟨w.heap.size, 0, none⟩)) rfl (by kernel_rfl) (by kernel_rfl) (by kernel_rfl) (fun _ _ _ h => h) (Yields.yieldsIf (Or.inl ⟨by rfl, fun w9 => by (go_simp; first | done | with_reducible rfl | (intro h9; exfalso; omega))⟩)) hS0 ?_
  change wpAnyH _ _ _ _ _ _ _ (Act.put _ (some 18) _) _; dsimp only [Act.put]; simp only [List.setIfInBounds_toArray, List.set_cons_succ, List.set_cons_zero]
  refine wpAnyH_take (i := 3) (v := .agg #[.string sp, .int .i64 sc]) rfl (by kernel_rfl) (by kernel_rfl) (by kernel_rfl) (fun _ _ _ h => h) (Or.inl ⟨by rfl, fun w9 hS9 => by have hz := cells_of hp hS9 hnp; have z0 := cell_heap hz 0; have z1 := cell_heap hz 1; go_simp; try with_reducible rfl⟩) hS0 ?_
  change wpAnyH _ _ _ _ _ _ _ (Act.put _ (some 19) _) _; dsimp only [Act.put]; simp only [List.setIfInBounds_toArray, List.set_cons_succ, List.set_cons_zero]
  refine wpAnyH_take (i := 4) (v := .pointer (some ⟨wa.heap.size, 0, none⟩)) rfl (by kernel_rfl) (by kernel_rfl) (by kernel_rfl) (fun _ _ _ h => h) (Yields.yieldsIf (Or.inl ⟨by rfl, fun w9 => by (go_simp; first | done | with_reducible rfl | (intro h9; exfalso; omega))⟩)) hS0 ?_
  change wpAnyH _ _ _ _ _ _ _ (Act.put _ (some 20) _) _; dsimp only [Act.put]; simp only [List.setIfInBounds_toArray, List.set_cons_succ, List.set_cons_zero]
  refine wpAnyH_ready (rs := [5]) (by kernel_rfl) (by simp) ?_
  refine AllReadyH.cons rfl (fun K hK => ?_) (fun j hj => by cases hj)
  have z0 := cell_heap hi 0
  have z1 := cell_heap hi 1
  have fz0 := frozen_heap hi 0
  have fz1 := frozen_heap hi 1
  go_simp
  have hS1 := set_below wa.heap.size (set_below wa.heap.size hS0 0 (.string dp)) 1 (.int .i64 dc)
  refine (Shut.out hK) _ _ hS1 (fun _ => ?_)
  clear hK K
  refine wpAnyH_take (i := 6) (v := .pointer (some ⟨wa.heap.size, 2, none⟩)) rfl (by kernel_rfl) (by kernel_rfl) (by kernel_rfl) (fun _ _ _ h => h) (Yields.yieldsIf (Or.inl ⟨by rfl, fun w9 => by (go_simp; first | done | with_reducible rfl | (intro h9; exfalso; omega))⟩)) hS1 ?_
  change wpAnyH _ _ _ _ _ _ _ (Act.put _ (some 21) _) _; dsimp only [Act.put]; simp only [List.setIfInBounds_toArray, List.set_cons_succ, List.set_cons_zero]
  refine wpAnyH_ready (rs := [7]) (by kernel_rfl) (by simp) ?_
  refine AllReadyH.cons rfl (fun K hK => ?_) (fun j hj => by cases hj)
  have z2 := cell_heap hi 2
  have z3 := cell_heap hi 3
  have fz2 := frozen_heap hi 2
  have fz3 := frozen_heap hi 3
  go_simp
  have hS2 := set_below wa.heap.size (set_below wa.heap.size hS1 2 (.string sp)) 3 (.int .i64 sc)
  refine (Shut.out hK) _ _ hS2 (fun _ => ?_)
  clear hK K
  refine wpAnyH_done (by kernel_rfl) ?_ _
  go_upto_region 5 with fail
  refine wp_nameE _ (fun w5 hw5 => ?_)
  have hb5 : Below wa.heap.size w4 w5 := by rw [hw5]; exact hS2
  have hi5 : w5.heap[wa.heap.size]? = some (.cells #[.string dp, .int .i64 dc, .string sp, .int .i64 sc, .int .i64 sq, .string da, .int .i64 th, .int .i64 ta] 74 (0, 0)) := by rw [hw5]; exact (row_put5 (row_put5 (row_put5 (row_put5 hi)))).trans rfl
  clear hw5 hi hS0 hS1 hS2
  have hp := cells_of hp hb5 hnp
  have hbel := hbel.trans (hb5.mono (Nat.le_of_lt hnp))
  have i0 := cell_heap hi5 0
  have i1 := cell_heap hi5 1
  have i2 := cell_heap hi5 2
  have i3 := cell_heap hi5 3
  have i4 := cell_heap hi5 4
  have i5 := cell_heap hi5 5
  have i6 := cell_heap hi5 6
  have i7 := cell_heap hi5 7
  go_upto_region 6 with fail
  refine wp_nameE _ (fun w6 hw6 => ?_)
  have hb6 : Below w5.heap.size w5 w6 := by rw [hw6]; exact (Below.refl _ _).alloc (Nat.le_refl _) _
  have hv : w6.heap[w5.heap.size]? = some (.cells #[.int .i64 3, .string dp, .int .i64 dc, .string sp, .int .i64 sc, .int .i64 sq, .string da, .int .i64 th, .int .i64 ta, .string ack, .string ⟨#[]⟩, .int .i64 0, .int .i64 0] 76 (0, 0)) := by rw [hw6]; exact heap_push w5 _ _
  clear hw6
  have hp := cells_of hp hb6 (row_lt hp)
  have hbel := hbel.trans (hb6.mono hbel.size)
  clear hi5 hb6 hb5 hlt i0 i1 i2 i3 i4 i5 i6 i7
  have q0 := cell_heap hv 0
  have q1 := cell_heap hv 1
  have q2 := cell_heap hv 2
  have q3 := cell_heap hv 3
  have q4 := cell_heap hv 4
  have q5 := cell_heap hv 5
  have q6 := cell_heap hv 6
  have q7 := cell_heap hv 7
  have q8 := cell_heap hv 8
  have q9 := cell_heap hv 9
  have q10 := cell_heap hv 10
  have q11 := cell_heap hv 11
  have q12 := cell_heap hv 12
  have C6 := CL (w6.alloc (.cells #[.int .i64 3, .string dp, .int .i64 dc, .string sp, .int .i64 sc, .int .i64 sq, .string da, .int .i64 th, .int .i64 ta, .string ack, .string ⟨#[]⟩, .int .i64 0, .int .i64 0] 76)) w6.heap.size (heap_push w6 _ _)
  have hb6a : Below w6.heap.size w6 (w6.alloc (.cells #[.int .i64 3, .string dp, .int .i64 dc, .string sp, .int .i64 sc, .int .i64 sq, .string da, .int .i64 th, .int .i64 ta, .string ack, .string ⟨#[]⟩, .int .i64 0, .int .i64 0] 76)) := (Below.refl _ _).alloc (Nat.le_refl _) _
  clear CL
  cases lb
  · go_wp2_with (first | (go_at_call 30; refine C6.mono ?_; rintro e w7 ⟨rfl, hb7⟩; have hb7 := hb6a.trans (hb7.mono hb6a.size); have hv := cells_of hv hb7 (row_lt hv); have hbel := hbel.trans (hb7.mono hbel.size); have q0 := cell_heap hv 0; have q1 := cell_heap hv 1; have q2 := cell_heap hv 2; have q3 := cell_heap hv 3; have q4 := cell_heap hv 4; have q5 := cell_heap hv 5; have q6 := cell_heap hv 6; have q7 := cell_heap hv 7; have q8 := cell_heap hv 8; have q9 := cell_heap hv 9; have q10 := cell_heap hv 10; have q11 := cell_heap hv 11; have q12 := cell_heap hv 12) | (go_at_call 29; refine (first22_any _).mono ?_; rintro e w9 ⟨rfl, hb9⟩))
    go_ret
    exact ⟨by first | rfl | simp, hbel.trans (hb9.mono hbel.size)⟩
  cases mb
  · go_wp2_with (first | (go_at_call 30; refine C6.mono ?_; rintro e w7 ⟨rfl, hb7⟩; have hb7 := hb6a.trans (hb7.mono hb6a.size); have hv := cells_of hv hb7 (row_lt hv); have hbel := hbel.trans (hb7.mono hbel.size); have q0 := cell_heap hv 0; have q1 := cell_heap hv 1; have q2 := cell_heap hv 2; have q3 := cell_heap hv 3; have q4 := cell_heap hv 4; have q5 := cell_heap hv 5; have q6 := cell_heap hv 6; have q7 := cell_heap hv 7; have q8 := cell_heap hv 8; have q9 := cell_heap hv 9; have q10 := cell_heap hv 10; have q11 := cell_heap hv 11; have q12 := cell_heap hv 12) | (go_at_call 39; refine (CM _).mono ?_; rintro e w8 ⟨rfl, hb8⟩) | (go_at_call 29; refine (first22_any _).mono ?_; rintro e w9 ⟨rfl, hb9⟩))
    go_ret
    have hbel := hbel.trans (hb8.mono hbel.size)
    exact ⟨by first | rfl | simp, hbel.trans (hb9.mono hbel.size)⟩
  go_upto_region 11 with (first | (go_at_call 30; refine C6.mono ?_; rintro e w7 ⟨rfl, hb7⟩; have hb7 := hb6a.trans (hb7.mono hb6a.size); have hp := cells_of hp hb7 (row_lt hp); have hv := cells_of hv hb7 (row_lt hv); have hbel := hbel.trans (hb7.mono hbel.size); have q0 := cell_heap hv 0; have q1 := cell_heap hv 1; have q2 := cell_heap hv 2; have q3 := cell_heap hv 3; have q4 := cell_heap hv 4; have q5 := cell_heap hv 5; have q6 := cell_heap hv 6; have q7 := cell_heap hv 7; have q8 := cell_heap hv 8; have q9 := cell_heap hv 9; have q10 := cell_heap hv 10; have q11 := cell_heap hv 11; have q12 := cell_heap hv 12) | (go_at_call 39; refine (CM _).mono ?_; rintro e w8 ⟨rfl, hb8⟩; have hp := cells_of hp hb8 (row_lt hp); have hv := cells_of hv hb8 (row_lt hv); have hbel := hbel.trans (hb8.mono hbel.size)) | (go_at_call 31; refine (lfNew_any _).mono ?_; rintro e w9 ⟨rfl, hT9, hb9⟩))
  have hlp := row_lt hp
  have hlv := row_lt hv
  have hp := cells_of hp hb9 hlp
  have hv := cells_of hv hb9 hlv
  have hbel := hbel.trans (hb9.mono hbel.size)
  obtain ⟨sA, sB, sC, sD, sE, sF, kwa, kwb⟩ := sides_all sp sc dp dc sq da th ta ack hmb (fun _ _ => false) (foldC (fun _ _ => false) ⟨1, sp, sc, dp, dc, sq, da, th, ta, ⟨#[]⟩, ⟨#[]⟩, 0, 0⟩)
  have CF1 := fun W hT => lfFold_any (w8.heap.size + 2) w8.heap.size (w8.heap.size + 1) 0 (fun _ => none) (fun _ _ => false) 1 sp sc dp dc sq da th ta ⟨#[]⟩ ⟨#[]⟩ 0 0 W h1 h2 (by unfold maxLen; decide) hT (by unfold maxLen; decide)
  have CF2 := fun W hT => lfFold_any (w8.heap.size + 2) w8.heap.size (w8.heap.size + 1) 1 (foldF (fun _ => none) ⟨1, sp, sc, dp, dc, sq, da, th, ta, ⟨#[]⟩, ⟨#[]⟩, 0, 0⟩) (foldC (fun _ _ => false) ⟨1, sp, sc, dp, dc, sq, da, th, ta, ⟨#[]⟩, ⟨#[]⟩, 0, 0⟩) 3 dp dc sp sc sq da th ta ack ⟨#[]⟩ 0 0 W h2 h1 (by unfold maxLen; decide) hT (by unfold maxLen; decide)
  rw [sA] at CF1
  rw [sB] at CF2
  generalize foldF (foldF (fun _ => none) ⟨1, sp, sc, dp, dc, sq, da, th, ta, ⟨#[]⟩, ⟨#[]⟩, 0, 0⟩) ⟨3, dp, dc, sp, sc, sq, da, th, ta, ack, ⟨#[]⟩, 0, 0⟩ = f2 at CF2 sC sD sE
  generalize foldF (fun _ => none) ⟨1, sp, sc, dp, dc, sq, da, th, ta, ⟨#[]⟩, ⟨#[]⟩, 0, 0⟩ = f1 at CF1 CF2
  generalize foldC (foldC (fun _ _ => false) ⟨1, sp, sc, dp, dc, sq, da, th, ta, ⟨#[]⟩, ⟨#[]⟩, 0, 0⟩) ⟨3, dp, dc, sp, sc, sq, da, th, ta, ack, ⟨#[]⟩, 0, 0⟩ = c2 at CF2
  generalize foldC (fun _ _ => false) ⟨1, sp, sc, dp, dc, sq, da, th, ta, ⟨#[]⟩, ⟨#[]⟩, 0, 0⟩ = c1 at CF1 CF2
  clear sA sB hmb CM C6 hb6a q0 q1 q2 q3 q4 q5 q6 q7 q8 q9 q10 q11 q12
  refine wp_region_held_drew (S := fun W => Below w8.heap.size w9 W) (by kernel_rfl) ((Below.refl _ _).drew) (fun hS0 => ?_)
  refine wpAnyH_take (i := 0) (v := .pointer (some ⟨w8.heap.size + 2, 0, none⟩)) rfl (by kernel_rfl) (by kernel_rfl) (by kernel_rfl) (fun _ _ _ h => h) (Yields.yieldsIf (Or.inl ⟨by rfl, fun w9 => by (go_simp; first | done | with_reducible rfl | (intro h9; exfalso; omega))⟩)) hS0 ?_
  change wpAnyH _ _ _ _ _ _ _ (Act.put _ (some 38) _) _; dsimp only [Act.put]; simp only [List.setIfInBounds_toArray, List.set_cons_succ, List.set_cons_zero]
  refine wpAnyH_take (i := 1) (v := .agg #[.string sp, .int .i64 sc, .string dp, .int .i64 dc, .int .i64 sq, .string da, .int .i64 th, .int .i64 ta]) rfl (by kernel_rfl) (by kernel_rfl) (by kernel_rfl) (fun _ _ _ h => h) (Or.inl ⟨by rfl, fun w9 hS9 => exec_loadPkS (.tmp 2) rfl w.heap.size (by first | rfl | simp [Act.eval, Act.put]) sp sc dp dc sq da th ta (cells_of hp hS9 hlp)⟩) hS0 ?_
  change wpAnyH _ _ _ _ _ _ _ (Act.put _ (some 39) _) _; dsimp only [Act.put]; simp only [List.setIfInBounds_toArray, List.set_cons_succ, List.set_cons_zero]
  refine wpAnyH_take (i := 2) (v := .agg #[.int .i64 1, .string sp, .int .i64 sc, .string dp, .int .i64 dc, .int .i64 sq, .string da, .int .i64 th, .int .i64 ta, .string ⟨#[]⟩, .string ⟨#[]⟩, .int .i64 0, .int .i64 0]) rfl (by kernel_rfl) (by kernel_rfl) (by kernel_rfl) (fun _ _ _ h => h) (Or.inl ⟨by rfl, fun w9 hS9 => exec_buildEvS (.tmp 39) rfl sp sc dp dc sq da th ta (by first | rfl | simp [Act.eval, Act.put])⟩) hS0 ?_
  change wpAnyH _ _ _ _ _ _ _ (Act.put _ (some 40) _) _; dsimp only [Act.put]; simp only [List.setIfInBounds_toArray, List.set_cons_succ, List.set_cons_zero]
  refine wpAnyH_take (i := 4) (v := .pointer (some ⟨w8.heap.size + 2, 0, none⟩)) rfl (by kernel_rfl) (by kernel_rfl) (by kernel_rfl) (fun _ _ _ h => h) (Yields.yieldsIf (Or.inl ⟨by rfl, fun w9 => by (go_simp; first | done | with_reducible rfl | (intro h9; exfalso; omega))⟩)) hS0 ?_
  change wpAnyH _ _ _ _ _ _ _ (Act.put _ (some 42) _) _; dsimp only [Act.put]; simp only [List.setIfInBounds_toArray, List.set_cons_succ, List.set_cons_zero]
  refine wpAnyH_take (i := 5) (v := .agg #[.int .i64 3, .string dp, .int .i64 dc, .string sp, .int .i64 sc, .int .i64 sq, .string da, .int .i64 th, .int .i64 ta, .string ack, .string ⟨#[]⟩, .int .i64 0, .int .i64 0]) rfl (by kernel_rfl) (by kernel_rfl) (by kernel_rfl) (fun _ _ _ h => h) (Or.inl ⟨by rfl, fun w9 hS9 => exec_loadEvS (.tmp 6) rfl w5.heap.size (by first | rfl | simp [Act.eval, Act.put]) ⟨3, dp, dc, sp, sc, sq, da, th, ta, ack, ⟨#[]⟩, 0, 0⟩ (cells_of hv hS9 hlv)⟩) hS0 ?_
  change wpAnyH _ _ _ _ _ _ _ (Act.put _ (some 43) _) _; dsimp only [Act.put]; simp only [List.setIfInBounds_toArray, List.set_cons_succ, List.set_cons_zero]
  refine wpAnyH_ready (rs := [3]) (by kernel_rfl) (by simp) ?_
  refine AllReadyH.cons rfl (fun K hK => ?_) (fun j hj => by cases hj)
  go_simp
  refine (CF1 _ (hT9.kept ((Below.refl _ _).drew))).mono ?_
  rintro e w12 ⟨rfl, hT12, j1, hj1, hg12⟩
  have hS1 := hS0.trans (grown_lowM hg12 (fun k e => by cases e; rcases hj1 with rfl | rfl <;> omega) hb9.size)
  refine (Shut.out hK) _ _ hS1 (fun _ => ?_)
  clear hK K
  refine wpAnyH_ready (rs := [6]) (by kernel_rfl) (by simp) ?_
  refine AllReadyH.cons rfl (fun K hK => ?_) (fun j hj => by cases hj)
  go_simp
  refine (CF2 _ hT12).mono ?_
  rintro e w13 ⟨rfl, hT13, j2, hj2, hg13⟩
  have hS2 := hS1.trans (grown_lowM hg13 (fun k e => by cases e; rcases hj2 with rfl | rfl <;> omega) (Nat.le_trans hb9.size hS1.size))
  refine (Shut.out hK) _ _ hS2 (fun _ => ?_)
  clear hK K
  refine wpAnyH_take (i := 7) (v := .int .i64 0) rfl (by kernel_rfl) (by kernel_rfl) (by kernel_rfl) (fun _ _ _ h => h) (Yields.yieldsIf (Or.inl ⟨by rfl, fun w9 => by (go_simp; first | done | with_reducible rfl | (intro h9; exfalso; omega))⟩)) hS2 ?_
  change wpAnyH _ _ _ _ _ _ _ (Act.put _ (some 8) _) _; dsimp only [Act.put]; simp only [List.setIfInBounds_toArray, List.set_cons_succ, List.set_cons_zero]
  refine wpAnyH_take (i := 8) (v := .int .i64 0) rfl (by kernel_rfl) (by kernel_rfl) (by kernel_rfl) (fun _ _ _ h => h) (Yields.yieldsIf (Or.inl ⟨by rfl, fun w9 => by (go_simp; first | done | with_reducible rfl | (intro h9; exfalso; omega))⟩)) hS2 ?_
  change wpAnyH _ _ _ _ _ _ _ (Act.put _ (some 9) _) _; dsimp only [Act.put]; simp only [List.setIfInBounds_toArray, List.set_cons_succ, List.set_cons_zero]
  refine wpAnyH_done (by kernel_rfl) ?_ _
  go_upto_region 12 with fail
  have hp := cells_of hp hS2 hlp
  have hbel := hbel.trans (hS2.mono (Nat.le_trans (Nat.le_of_lt (Nat.lt_of_le_of_lt (Nat.le_refl _) hlp)) (Nat.le_refl _)))
  clear hS0 hS1 hS2 hT9 hT12 hg12 hg13 hj1 hj2 CF1 CF2 hv hlv hb9
  have hlp := row_lt hp
  have p0 : w13.cell? ⟨w.heap.size, 0, none⟩ = some (.string sp) := cell_heap hp 0
  have p1 : w13.cell? ⟨w.heap.size, 1, none⟩ = some (.int .i64 sc) := cell_heap hp 1
  have p4 : w13.cell? ⟨w.heap.size, 4, none⟩ = some (.int .i64 sq) := cell_heap hp 4
  rename_i K9 a9
  have HK : ∀ (X : World) (ia ib : Nat), Below w13.heap.size w13 X → X.heap[ia]? = some (.cells #[.string sp, .int .i64 sc, .bool true, .int .i64 sq] 62 (0, 0)) → X.heap[ib]? = some (.cells #[.string sp, .int .i64 sc, .bool false, .int .i64 sq] 62 (0, 0)) → K9 { tmps := #[Value.agg #[Value.string sp, Value.int IntKind.i64 sc, Value.string dp, Value.int IntKind.i64 dc, Value.int IntKind.i64 sq, Value.string da, Value.int IntKind.i64 th, Value.int IntKind.i64 ta], Value.string ack, Value.pointer (some { block := w.heap.size, off := 0 }), undef, Value.bool false, Value.pointer (some { block := wa.heap.size, off := 0 }), Value.pointer (some { block := w5.heap.size, off := 0 }), Value.pointer (some { block := w8.heap.size + 2, off := 0 }), Value.int IntKind.i64 0, Value.int IntKind.i64 0, .pointer (some ⟨ia, 0, none⟩), .pointer (some ⟨ib, 0, none⟩), undef, Value.bool true, Value.bool false, Value.agg #[Value.string sp, Value.int IntKind.i64 sc, Value.string dp, Value.int IntKind.i64 dc, Value.int IntKind.i64 sq, Value.string da, Value.int IntKind.i64 th, Value.int IntKind.i64 ta], Value.pointer (some { block := w.heap.size, off := 2 }), Value.agg #[Value.string dp, Value.int IntKind.i64 dc], Value.pointer (some { block := w.heap.size, off := 0 }), Value.agg #[Value.string sp, Value.int IntKind.i64 sc], Value.pointer (some { block := wa.heap.size, off := 0 }), Value.pointer (some { block := wa.heap.size, off := 2 }), Value.agg #[Value.string dp, Value.int IntKind.i64 dc, Value.string sp, Value.int IntKind.i64 sc, Value.int IntKind.i64 sq, Value.string da, Value.int IntKind.i64 th, Value.int IntKind.i64 ta], Value.string ack, Value.agg #[Value.int IntKind.i64 3, Value.string dp, Value.int IntKind.i64 dc, Value.string sp, Value.int IntKind.i64 sc, Value.int IntKind.i64 sq, Value.string da, Value.int IntKind.i64 th, Value.int IntKind.i64 ta, Value.string ack, Value.string { data := #[] }, Value.int IntKind.i64 0, Value.int IntKind.i64 0], Value.agg #[Value.int IntKind.i64 3, Value.string dp, Value.int IntKind.i64 dc, Value.string sp, Value.int IntKind.i64 sc, Value.int IntKind.i64 sq, Value.string da, Value.int IntKind.i64 th, Value.int IntKind.i64 ta, Value.string ack, Value.string { data := #[] }, Value.int IntKind.i64 0, Value.int IntKind.i64 0], Value.slice (some { block := w6.heap.size, off := 0 }) 1 1, Value.bool true, Value.bool false, Value.bool false, Value.agg #[Value.int IntKind.i64 3, Value.string dp, Value.int IntKind.i64 dc, Value.string sp, Value.int IntKind.i64 sc, Value.int IntKind.i64 sq, Value.string da, Value.int IntKind.i64 th, Value.int IntKind.i64 ta, Value.string ack, Value.string { data := #[] }, Value.int IntKind.i64 0, Value.int IntKind.i64 0], Value.bool true, Value.bool false, Value.bool false, undef, Value.pointer (some { block := w8.heap.size + 2, off := 0 }), Value.pointer (some { block := w8.heap.size + 2, off := 0 }), Value.bool false, Value.pointer (some { block := w8.heap.size + 2, off := 0 }), Value.agg #[Value.string sp, Value.int IntKind.i64 sc, Value.string dp, Value.int IntKind.i64 dc, Value.int IntKind.i64 sq, Value.string da, Value.int IntKind.i64 th, Value.int IntKind.i64 ta], .agg #[.int .i64 1, .string sp, .int .i64 sc, .string dp, .int .i64 dc, .int .i64 sq, .string da, .int .i64 th, .int .i64 ta, .string ⟨#[]⟩, .string ⟨#[]⟩, .int .i64 0, .int .i64 0], Value.int IntKind.i64 0, Value.pointer (some { block := w8.heap.size + 2, off := 0 }), .agg #[.int .i64 3, .string dp, .int .i64 dc, .string sp, .int .i64 sc, .int .i64 sq, .string da, .int .i64 th, .int .i64 ta, .string ack, .string ⟨#[]⟩, .int .i64 0, .int .i64 0], Value.int IntKind.i64 0, .pointer (some ⟨w.heap.size, 0, none⟩), .agg #[.string sp, .int .i64 sc], .pointer (some ⟨w.heap.size, 4, none⟩), .int .i64 sq, .agg #[.string sp, .int .i64 sc, .bool true, .int .i64 sq], .pointer (some ⟨w.heap.size, 0, none⟩), .agg #[.string sp, .int .i64 sc], .pointer (some ⟨w.heap.size, 4, none⟩), .int .i64 sq, .agg #[.string sp, .int .i64 sc, .bool false, .int .i64 sq], undef, undef, undef, undef, undef, undef, undef, undef, undef, undef, undef, undef, undef, undef, undef, undef, undef, undef, undef, undef, undef, undef, undef, undef, undef, undef, undef, undef, undef, undef, undef, undef, undef, undef, undef, undef, undef, undef, undef], defers := [] } X := by
    intro X ia ib hbX hia hib
    have hT := hT13.kept hbX
    have hbel := hbel.trans (hbX.mono hbel.size)
    have CK := lfKeys_any (w8.heap.size + 2) w8.heap.size (w8.heap.size + 1) (1 + 1) f2 c2 X hT (by omega) [⟨sp, sc, false, sq⟩, ⟨sp, sc, true, sq⟩] (by simp; exact sF) (by intro x hx; simp at hx; rcases hx with rfl | rfl; exact kwb; exact kwa) sE
    have CS1 : ∀ W, TabAt W (w8.heap.size + 2) w8.heap.size (w8.heap.size + 1) (1 + 1) f2 c2 → Calls Try.prog 36 #[.pointer (some ⟨w8.heap.size + 2, 0, none⟩), .agg #[.string sp, .int .i64 sc, .bool true, .int .i64 sq]] W fun e w9 => e = .returned (.int .i64 1) ∧ Below W.heap.size W w9 := fun W hW => by rw [← sC]; exact lfStage_any _ _ _ _ _ _ (⟨sp, sc, true, sq⟩ : Lk) kwa W hW
    have CS2 : ∀ W, TabAt W (w8.heap.size + 2) w8.heap.size (w8.heap.size + 1) (1 + 1) f2 c2 → Calls Try.prog 36 #[.pointer (some ⟨w8.heap.size + 2, 0, none⟩), .agg #[.string sp, .int .i64 sc, .bool false, .int .i64 sq]] W fun e w9 => e = .returned (.int .i64 5) ∧ Below W.heap.size W w9 := fun W hW => by rw [← sD]; exact lfStage_any _ _ _ _ _ _ (⟨sp, sc, false, sq⟩ : Lk) kwb W hW
    refine a9 _ _ ?_
    go_upto_region 14 with (go_at_call 40; refine CK.mono ?_; rintro e Y ⟨v, rfl, ho, hbY⟩; obtain ⟨gk, cap, cur, rfl, hgk, htk⟩ := own_someS ho)
    skip
    have hTY := hT.kept hbY
    have hia := cells_of hia hbY (row_lt hia)
    have hib := cells_of hib hbY (row_lt hib)
    have hbel := hbel.trans (hbY.mono hbel.size)
    have hk0 := range_keyS (k := (⟨sp, sc, false, sq⟩ : Lk)) (pre := []) (suf := (⟨sp, sc, true, sq⟩ : Lk).L) hgk (by simpa [Lk.L] using htk)
    have hk4 := range_keyS (k := (⟨sp, sc, true, sq⟩ : Lk)) (pre := (⟨sp, sc, false, sq⟩ : Lk).L) (suf := []) hgk (by simpa [Lk.L] using htk)
    clear CK ho hbY htk hT hT13 hbX p0 p1 p4 hp hlp sC sD sE sF kwa kwb
    refine wp_region_held_drew (S := fun W => Below Y.heap.size Y W) (by kernel_rfl) ((Below.refl _ _).drew) (fun hS0 => ?_)
    refine wpAnyH_take (i := 0) (v := .int .i64 0) rfl (by kernel_rfl) (by kernel_rfl) (by kernel_rfl) (fun _ _ _ h => h) (Yields.yieldsIf (Or.inl ⟨by rfl, fun w9 => by (go_simp; first | done | with_reducible rfl | (intro h9; exfalso; omega))⟩)) hS0 ?_
    change wpAnyH _ _ _ _ _ _ _ (Act.put _ (some 57) _) _; dsimp only [Act.put]; simp only [List.setIfInBounds_toArray, List.set_cons_succ, List.set_cons_zero]
    refine wpAnyH_take (i := 1) (v := .bool true) rfl (by kernel_rfl) (by kernel_rfl) (by kernel_rfl) (fun _ _ _ h => h) (Yields.yieldsIf (Or.inl ⟨by rfl, fun w9 => by (go_simp; first | done | with_reducible rfl | (intro h9; exfalso; omega))⟩)) hS0 ?_
    change wpAnyH _ _ _ _ _ _ _ (Act.put _ (some 58) _) _; dsimp only [Act.put]; simp only [List.setIfInBounds_toArray, List.set_cons_succ, List.set_cons_zero]
    refine wpAnyH_take (i := 2) (v := .bool true) rfl (by kernel_rfl) (by kernel_rfl) (by kernel_rfl) (fun _ _ _ h => h) (Yields.yieldsIf (Or.inl ⟨by rfl, fun w9 => by (go_simp; first | done | with_reducible rfl | (intro h9; exfalso; omega))⟩)) hS0 ?_
    change wpAnyH _ _ _ _ _ _ _ (Act.put _ (some 59) _) _; dsimp only [Act.put]; simp only [List.setIfInBounds_toArray, List.set_cons_succ, List.set_cons_zero]
    refine wpAnyH_take (i := 3) (v := .int .i64 0) rfl (by kernel_rfl) (by kernel_rfl) (by kernel_rfl) (fun _ _ _ h => h) (Yields.yieldsIf (Or.inl ⟨by rfl, fun w9 => by (go_simp; first | done | with_reducible rfl | (intro h9; exfalso; omega))⟩)) hS0 ?_
    change wpAnyH _ _ _ _ _ _ _ (Act.put _ (some 60) _) _; dsimp only [Act.put]; simp only [List.setIfInBounds_toArray, List.set_cons_succ, List.set_cons_zero]
    refine wpAnyH_take (i := 4) (v := .bool true) rfl (by kernel_rfl) (by kernel_rfl) (by kernel_rfl) (fun _ _ _ h => h) (Yields.yieldsIf (Or.inl ⟨by rfl, fun w9 => by (go_simp; first | done | with_reducible rfl | (intro h9; exfalso; omega))⟩)) hS0 ?_
    change wpAnyH _ _ _ _ _ _ _ (Act.put _ (some 61) _) _; dsimp only [Act.put]; simp only [List.setIfInBounds_toArray, List.set_cons_succ, List.set_cons_zero]
    refine wpAnyH_take (i := 5) (v := .bool true) rfl (by kernel_rfl) (by kernel_rfl) (by kernel_rfl) (fun _ _ _ h => h) (Yields.yieldsIf (Or.inl ⟨by rfl, fun w9 => by (go_simp; first | done | with_reducible rfl | (intro h9; exfalso; omega))⟩)) hS0 ?_
    change wpAnyH _ _ _ _ _ _ _ (Act.put _ (some 62) _) _; dsimp only [Act.put]; simp only [List.setIfInBounds_toArray, List.set_cons_succ, List.set_cons_zero]
    refine wpAnyH_take (i := 6) (v := .bool true) rfl (by kernel_rfl) (by kernel_rfl) (by kernel_rfl) (fun _ _ _ h => h) (Yields.yieldsIf (Or.inl ⟨by rfl, fun w9 => by (go_simp; first | done | with_reducible rfl | (intro h9; exfalso; omega))⟩)) hS0 ?_
    change wpAnyH _ _ _ _ _ _ _ (Act.put _ (some 63) _) _; dsimp only [Act.put]; simp only [List.setIfInBounds_toArray, List.set_cons_succ, List.set_cons_zero]
    refine wpAnyH_take (i := 7) (v := .pointer (some ⟨w8.heap.size + 2, 0, none⟩)) rfl (by kernel_rfl) (by kernel_rfl) (by kernel_rfl) (fun _ _ _ h => h) (Yields.yieldsIf (Or.inl ⟨by rfl, fun w9 => by (go_simp; first | done | with_reducible rfl | (intro h9; exfalso; omega))⟩)) hS0 ?_
    change wpAnyH _ _ _ _ _ _ _ (Act.put _ (some 64) _) _; dsimp only [Act.put]; simp only [List.setIfInBounds_toArray, List.set_cons_succ, List.set_cons_zero]
    refine wpAnyH_take (i := 8) (v := .agg #[.string sp, .int .i64 sc, .bool true, .int .i64 sq]) rfl (by kernel_rfl) (by kernel_rfl) (by kernel_rfl) (fun _ _ _ h => h) (Or.inl ⟨by rfl, fun w9 hS9 => exec_loadLk (.tmp 10) rfl ia (by first | rfl | simp [Act.eval, Act.put]) (⟨sp, sc, true, sq⟩ : Lk) (cells_of hia hS9 (row_lt hia))⟩) hS0 ?_
    change wpAnyH _ _ _ _ _ _ _ (Act.put _ (some 65) _) _; dsimp only [Act.put]; simp only [List.setIfInBounds_toArray, List.set_cons_succ, List.set_cons_zero]
    refine wpAnyH_ready (rs := [9]) (by kernel_rfl) (by simp) ?_
    refine AllReadyH.cons rfl (fun K hK => ?_) (fun j hj => by cases hj)
    go_simp
    refine (CS1 _ (hTY.kept hS0)).mono ?_
    rintro e w15 ⟨rfl, hb15⟩
    have hS1 := hS0.trans (hb15.mono hS0.size)
    refine (Shut.out hK) _ _ hS1 (fun _ => ?_)
    clear hK K
    refine wpAnyH_take (i := 10) (v := .bool true) rfl (by kernel_rfl) (by kernel_rfl) (by kernel_rfl) (fun _ _ _ h => h) (Yields.yieldsIf (Or.inl ⟨by rfl, fun w9 => by (go_simp; first | done | with_reducible rfl | (intro h9; exfalso; omega))⟩)) hS1 ?_
    change wpAnyH _ _ _ _ _ _ _ (Act.put _ (some 67) _) _; dsimp only [Act.put]; simp only [List.setIfInBounds_toArray, List.set_cons_succ, List.set_cons_zero]
    refine wpAnyH_take (i := 11) (v := .bool true) rfl (by kernel_rfl) (by kernel_rfl) (by kernel_rfl) (fun _ _ _ h => h) (Yields.yieldsIf (Or.inl ⟨by rfl, fun w9 => by (go_simp; first | done | with_reducible rfl | (intro h9; exfalso; omega))⟩)) hS1 ?_
    change wpAnyH _ _ _ _ _ _ _ (Act.put _ (some 68) _) _; dsimp only [Act.put]; simp only [List.setIfInBounds_toArray, List.set_cons_succ, List.set_cons_zero]
    refine wpAnyH_take (i := 12) (v := .bool true) rfl (by kernel_rfl) (by kernel_rfl) (by kernel_rfl) (fun _ _ _ h => h) (Yields.yieldsIf (Or.inl ⟨by rfl, fun w9 => by (go_simp; first | done | with_reducible rfl | (intro h9; exfalso; omega))⟩)) hS1 ?_
    change wpAnyH _ _ _ _ _ _ _ (Act.put _ (some 69) _) _; dsimp only [Act.put]; simp only [List.setIfInBounds_toArray, List.set_cons_succ, List.set_cons_zero]
    refine wpAnyH_take (i := 13) (v := .pointer (some ⟨w8.heap.size + 2, 0, none⟩)) rfl (by kernel_rfl) (by kernel_rfl) (by kernel_rfl) (fun _ _ _ h => h) (Yields.yieldsIf (Or.inl ⟨by rfl, fun w9 => by (go_simp; first | done | with_reducible rfl | (intro h9; exfalso; omega))⟩)) hS1 ?_
    change wpAnyH _ _ _ _ _ _ _ (Act.put _ (some 70) _) _; dsimp only [Act.put]; simp only [List.setIfInBounds_toArray, List.set_cons_succ, List.set_cons_zero]
    refine wpAnyH_take (i := 14) (v := .agg #[.string sp, .int .i64 sc, .bool false, .int .i64 sq]) rfl (by kernel_rfl) (by kernel_rfl) (by kernel_rfl) (fun _ _ _ h => h) (Or.inl ⟨by rfl, fun w9 hS9 => exec_loadLk (.tmp 11) rfl ib (by first | rfl | simp [Act.eval, Act.put]) (⟨sp, sc, false, sq⟩ : Lk) (cells_of hib hS9 (row_lt hib))⟩) hS1 ?_
    change wpAnyH _ _ _ _ _ _ _ (Act.put _ (some 71) _) _; dsimp only [Act.put]; simp only [List.setIfInBounds_toArray, List.set_cons_succ, List.set_cons_zero]
    refine wpAnyH_ready (rs := [15]) (by kernel_rfl) (by simp) ?_
    refine AllReadyH.cons rfl (fun K hK => ?_) (fun j hj => by cases hj)
    go_simp
    refine (CS2 _ (hTY.kept hS1)).mono ?_
    rintro e w16 ⟨rfl, hb16⟩
    have hS2 := hS1.trans (hb16.mono hS1.size)
    refine (Shut.out hK) _ _ hS2 (fun _ => ?_)
    clear hK K
    refine wpAnyH_take (i := 16) (v := .bool true) rfl (by kernel_rfl) (by kernel_rfl) (by kernel_rfl) (fun _ _ _ h => h) (Yields.yieldsIf (Or.inl ⟨by rfl, fun w9 => by (go_simp; first | done | with_reducible rfl | (intro h9; exfalso; omega))⟩)) hS2 ?_
    change wpAnyH _ _ _ _ _ _ _ (Act.put _ (some 73) _) _; dsimp only [Act.put]; simp only [List.setIfInBounds_toArray, List.set_cons_succ, List.set_cons_zero]
    refine wpAnyH_take (i := 17) (v := .bool true) rfl (by kernel_rfl) (by kernel_rfl) (by kernel_rfl) (fun _ _ _ h => h) (Yields.yieldsIf (Or.inl ⟨by rfl, fun w9 => by (go_simp; first | done | with_reducible rfl | (intro h9; exfalso; omega))⟩)) hS2 ?_
    change wpAnyH _ _ _ _ _ _ _ (Act.put _ (some 74) _) _; dsimp only [Act.put]; simp only [List.setIfInBounds_toArray, List.set_cons_succ, List.set_cons_zero]
    refine wpAnyH_take (i := 18) (v := .bool true) rfl (by kernel_rfl) (by kernel_rfl) (by kernel_rfl) (fun _ _ _ h => h) (Yields.yieldsIf (Or.inl ⟨by rfl, fun w9 => by (go_simp; first | done | with_reducible rfl | (intro h9; exfalso; omega))⟩)) hS2 ?_
    change wpAnyH _ _ _ _ _ _ _ (Act.put _ (some 75) _) _; dsimp only [Act.put]; simp only [List.setIfInBounds_toArray, List.set_cons_succ, List.set_cons_zero]
    refine wpAnyH_take (i := 19) (v := .slice (some ⟨gk, 0, none⟩) 2 cap) rfl (by kernel_rfl) (by kernel_rfl) (by kernel_rfl) (fun _ _ _ h => h) (Yields.yieldsIf (Or.inl ⟨by rfl, fun w9 => by (go_simp; first | done | with_reducible rfl | (intro h9; exfalso; omega))⟩)) hS2 ?_
    change wpAnyH _ _ _ _ _ _ _ (Act.put _ (some 76) _) _; dsimp only [Act.put]; simp only [List.setIfInBounds_toArray, List.set_cons_succ, List.set_cons_zero]
    refine wpAnyH_take (i := 20) (v := .int .i64 2) rfl (by kernel_rfl) (by kernel_rfl) (by kernel_rfl) (fun _ _ _ h => h) (Yields.yieldsIf (Or.inl ⟨by rfl, fun w9 => by (go_simp; first | done | with_reducible rfl | (intro h9; exfalso; omega))⟩)) hS2 ?_
    change wpAnyH _ _ _ _ _ _ _ (Act.put _ (some 77) _) _; dsimp only [Act.put]; simp only [List.setIfInBounds_toArray, List.set_cons_succ, List.set_cons_zero]
    refine wpAnyH_take (i := 21) (v := .bool true) rfl (by kernel_rfl) (by kernel_rfl) (by kernel_rfl) (fun _ _ _ h => h) (Yields.yieldsIf (Or.inl ⟨by rfl, fun w9 => by (go_simp; first | done | with_reducible rfl | (intro h9; exfalso; omega))⟩)) hS2 ?_
    change wpAnyH _ _ _ _ _ _ _ (Act.put _ (some 78) _) _; dsimp only [Act.put]; simp only [List.setIfInBounds_toArray, List.set_cons_succ, List.set_cons_zero]
    refine wpAnyH_take (i := 22) (v := .bool true) rfl (by kernel_rfl) (by kernel_rfl) (by kernel_rfl) (fun _ _ _ h => h) (Yields.yieldsIf (Or.inl ⟨by rfl, fun w9 => by (go_simp; first | done | with_reducible rfl | (intro h9; exfalso; omega))⟩)) hS2 ?_
    change wpAnyH _ _ _ _ _ _ _ (Act.put _ (some 79) _) _; dsimp only [Act.put]; simp only [List.setIfInBounds_toArray, List.set_cons_succ, List.set_cons_zero]
    refine wpAnyH_take (i := 23) (v := .bool true) rfl (by kernel_rfl) (by kernel_rfl) (by kernel_rfl) (fun _ _ _ h => h) (Yields.yieldsIf (Or.inl ⟨by rfl, fun w9 => by (go_simp; first | done | with_reducible rfl | (intro h9; exfalso; omega))⟩)) hS2 ?_
    change wpAnyH _ _ _ _ _ _ _ (Act.put _ (some 80) _) _; dsimp only [Act.put]; simp only [List.setIfInBounds_toArray, List.set_cons_succ, List.set_cons_zero]
    refine wpAnyH_take (i := 24) (v := .slice (some ⟨gk, 0, none⟩) 2 cap) rfl (by kernel_rfl) (by kernel_rfl) (by kernel_rfl) (fun _ _ _ h => h) (Yields.yieldsIf (Or.inl ⟨by rfl, fun w9 => by (go_simp; first | done | with_reducible rfl | (intro h9; exfalso; omega))⟩)) hS2 ?_
    change wpAnyH _ _ _ _ _ _ _ (Act.put _ (some 81) _) _; dsimp only [Act.put]; simp only [List.setIfInBounds_toArray, List.set_cons_succ, List.set_cons_zero]
    refine wpAnyH_take (i := 25) (v := .pointer (some ⟨gk, 0, none⟩)) rfl (by kernel_rfl) (by kernel_rfl) (by kernel_rfl) (fun _ _ _ h => h) (Yields.yieldsIf (Or.inl ⟨by rfl, fun w9 => by (go_simp; first | done | with_reducible rfl | (intro h9; exfalso; omega))⟩)) hS2 ?_
    change wpAnyH _ _ _ _ _ _ _ (Act.put _ (some 82) _) _; dsimp only [Act.put]; simp only [List.setIfInBounds_toArray, List.set_cons_succ, List.set_cons_zero]
    refine wpAnyH_take (i := 26) (v := .agg #[.string sp, .int .i64 sc, .bool false, .int .i64 sq]) rfl (by kernel_rfl) (by kernel_rfl) (by kernel_rfl) (fun _ _ _ h => h) (Or.inl ⟨by rfl, fun w9 hS9 => exec_loadLkAt (.tmp 82) rfl gk 0 (by first | rfl | simp [Act.eval, Act.put]) (⟨sp, sc, false, sq⟩ : Lk) (range_belowS hk0 hS9 (row_lt hgk))⟩) hS2 ?_
    change wpAnyH _ _ _ _ _ _ _ (Act.put _ (some 83) _) _; dsimp only [Act.put]; simp only [List.setIfInBounds_toArray, List.set_cons_succ, List.set_cons_zero]
    refine wpAnyH_take (i := 27) (v := .agg #[.string sp, .int .i64 sc, .bool false, .int .i64 sq]) rfl (by kernel_rfl) (by kernel_rfl) (by kernel_rfl) (fun _ _ _ h => h) (Or.inl ⟨by rfl, fun w9 hS9 => exec_loadLk (.tmp 11) rfl ib (by first | rfl | simp [Act.eval, Act.put]) (⟨sp, sc, false, sq⟩ : Lk) (cells_of hib hS9 (row_lt hib))⟩) hS2 ?_
    change wpAnyH _ _ _ _ _ _ _ (Act.put _ (some 84) _) _; dsimp only [Act.put]; simp only [List.setIfInBounds_toArray, List.set_cons_succ, List.set_cons_zero]
    refine wpAnyH_take (i := 28) (v := .bool true) rfl (by kernel_rfl) (by kernel_rfl) (by kernel_rfl) (fun _ _ _ h => h) (Yields.yieldsIf (Or.inl ⟨by rfl, fun w9 => by (go_simp; first | done | with_reducible rfl | (intro h9; exfalso; omega))⟩)) hS2 ?_
    change wpAnyH _ _ _ _ _ _ _ (Act.put _ (some 85) _) _; dsimp only [Act.put]; simp only [List.setIfInBounds_toArray, List.set_cons_succ, List.set_cons_zero]
    refine wpAnyH_take (i := 29) (v := .bool true) rfl (by kernel_rfl) (by kernel_rfl) (by kernel_rfl) (fun _ _ _ h => h) (Yields.yieldsIf (Or.inl ⟨by rfl, fun w9 => by (go_simp; first | done | with_reducible rfl | (intro h9; exfalso; omega))⟩)) hS2 ?_
    change wpAnyH _ _ _ _ _ _ _ (Act.put _ (some 86) _) _; dsimp only [Act.put]; simp only [List.setIfInBounds_toArray, List.set_cons_succ, List.set_cons_zero]
    refine wpAnyH_take (i := 30) (v := .bool true) rfl (by kernel_rfl) (by kernel_rfl) (by kernel_rfl) (fun _ _ _ h => h) (Yields.yieldsIf (Or.inl ⟨by rfl, fun w9 => by (go_simp; first | done | with_reducible rfl | (intro h9; exfalso; omega))⟩)) hS2 ?_
    change wpAnyH _ _ _ _ _ _ _ (Act.put _ (some 87) _) _; dsimp only [Act.put]; simp only [List.setIfInBounds_toArray, List.set_cons_succ, List.set_cons_zero]
    refine wpAnyH_take (i := 31) (v := .slice (some ⟨gk, 0, none⟩) 2 cap) rfl (by kernel_rfl) (by kernel_rfl) (by kernel_rfl) (fun _ _ _ h => h) (Yields.yieldsIf (Or.inl ⟨by rfl, fun w9 => by (go_simp; first | done | with_reducible rfl | (intro h9; exfalso; omega))⟩)) hS2 ?_
    change wpAnyH _ _ _ _ _ _ _ (Act.put _ (some 88) _) _; dsimp only [Act.put]; simp only [List.setIfInBounds_toArray, List.set_cons_succ, List.set_cons_zero]
    refine wpAnyH_take (i := 32) (v := .pointer (some ⟨gk, 4, none⟩)) rfl (by kernel_rfl) (by kernel_rfl) (by kernel_rfl) (fun _ _ _ h => h) (Yields.yieldsIf (Or.inl ⟨by rfl, fun w9 => by (go_simp; first | done | with_reducible rfl | (intro h9; exfalso; omega))⟩)) hS2 ?_
    change wpAnyH _ _ _ _ _ _ _ (Act.put _ (some 89) _) _; dsimp only [Act.put]; simp only [List.setIfInBounds_toArray, List.set_cons_succ, List.set_cons_zero]
    refine wpAnyH_take (i := 33) (v := .agg #[.string sp, .int .i64 sc, .bool true, .int .i64 sq]) rfl (by kernel_rfl) (by kernel_rfl) (by kernel_rfl) (fun _ _ _ h => h) (Or.inl ⟨by rfl, fun w9 hS9 => exec_loadLkAt (.tmp 89) rfl gk 4 (by first | rfl | simp [Act.eval, Act.put]) (⟨sp, sc, true, sq⟩ : Lk) (range_belowS hk4 hS9 (row_lt hgk))⟩) hS2 ?_
    change wpAnyH _ _ _ _ _ _ _ (Act.put _ (some 90) _) _; dsimp only [Act.put]; simp only [List.setIfInBounds_toArray, List.set_cons_succ, List.set_cons_zero]
    refine wpAnyH_take (i := 34) (v := .agg #[.string sp, .int .i64 sc, .bool true, .int .i64 sq]) rfl (by kernel_rfl) (by kernel_rfl) (by kernel_rfl) (fun _ _ _ h => h) (Or.inl ⟨by rfl, fun w9 hS9 => exec_loadLk (.tmp 10) rfl ia (by first | rfl | simp [Act.eval, Act.put]) (⟨sp, sc, true, sq⟩ : Lk) (cells_of hia hS9 (row_lt hia))⟩) hS2 ?_
    change wpAnyH _ _ _ _ _ _ _ (Act.put _ (some 91) _) _; dsimp only [Act.put]; simp only [List.setIfInBounds_toArray, List.set_cons_succ, List.set_cons_zero]
    refine wpAnyH_take (i := 35) (v := .bool true) rfl (by kernel_rfl) (by kernel_rfl) (by kernel_rfl) (fun _ _ _ h => h) (Yields.yieldsIf (Or.inl ⟨by rfl, fun w9 => by (go_simp; first | done | with_reducible rfl | (intro h9; exfalso; omega))⟩)) hS2 ?_
    change wpAnyH _ _ _ _ _ _ _ (Act.put _ (some 92) _) _; dsimp only [Act.put]; simp only [List.setIfInBounds_toArray, List.set_cons_succ, List.set_cons_zero]
    refine wpAnyH_take (i := 36) (v := .bool true) rfl (by kernel_rfl) (by kernel_rfl) (by kernel_rfl) (fun _ _ _ h => h) (Yields.yieldsIf (Or.inl ⟨by rfl, fun w9 => by (go_simp; first | done | with_reducible rfl | (intro h9; exfalso; omega))⟩)) hS2 ?_
    change wpAnyH _ _ _ _ _ _ _ (Act.put _ (some 93) _) _; dsimp only [Act.put]; simp only [List.setIfInBounds_toArray, List.set_cons_succ, List.set_cons_zero]
    refine wpAnyH_take (i := 37) (v := .bool true) rfl (by kernel_rfl) (by kernel_rfl) (by kernel_rfl) (fun _ _ _ h => h) (Yields.yieldsIf (Or.inl ⟨by rfl, fun w9 => by (go_simp; first | done | with_reducible rfl | (intro h9; exfalso; omega))⟩)) hS2 ?_
    change wpAnyH _ _ _ _ _ _ _ (Act.put _ (some 4) _) _; dsimp only [Act.put]; simp only [List.setIfInBounds_toArray, List.set_cons_succ, List.set_cons_zero]
    refine wpAnyH_done (by kernel_rfl) ?_ _
    go_wp2
    go_ret
    exact ⟨by first | rfl | simp, hbel.trans (hS2.mono hbel.size)⟩
  refine wp_region_held_drew (S := fun W => Below w13.heap.size w13 W) (by kernel_rfl) ((Below.refl _ _).drew) (fun hS0 => ?_)
  refine wpAnyH_take (i := 0) (v := .pointer (some ⟨w.heap.size, 0, none⟩)) rfl (by kernel_rfl) (by kernel_rfl) (by kernel_rfl) (fun _ _ _ h => h) (Yields.yieldsIf (Or.inl ⟨by rfl, fun w9 => by (go_simp; first | done | with_reducible rfl | (intro h9; exfalso; omega))⟩)) hS0 ?_
  change wpAnyH _ _ _ _ _ _ _ (Act.put _ (some 45) _) _; dsimp only [Act.put]; simp only [List.setIfInBounds_toArray, List.set_cons_succ, List.set_cons_zero]
  refine wpAnyH_take (i := 1) (v := .agg #[.string sp, .int .i64 sc]) rfl (by kernel_rfl) (by kernel_rfl) (by kernel_rfl) (fun _ _ _ h => h) (Or.inl ⟨by rfl, fun w9 hS9 => by have z0 := (hS9.cell (p := ⟨w.heap.size, 0, none⟩) hlp).trans p0; have z1 := (hS9.cell (p := ⟨w.heap.size, 1, none⟩) hlp).trans p1; go_simp; try with_reducible rfl⟩) hS0 ?_
  change wpAnyH _ _ _ _ _ _ _ (Act.put _ (some 46) _) _; dsimp only [Act.put]; simp only [List.setIfInBounds_toArray, List.set_cons_succ, List.set_cons_zero]
  refine wpAnyH_take (i := 2) (v := .pointer (some ⟨w.heap.size, 4, none⟩)) rfl (by kernel_rfl) (by kernel_rfl) (by kernel_rfl) (fun _ _ _ h => h) (Yields.yieldsIf (Or.inl ⟨by rfl, fun w9 => by (go_simp; first | done | with_reducible rfl | (intro h9; exfalso; omega))⟩)) hS0 ?_
  change wpAnyH _ _ _ _ _ _ _ (Act.put _ (some 47) _) _; dsimp only [Act.put]; simp only [List.setIfInBounds_toArray, List.set_cons_succ, List.set_cons_zero]
  refine wpAnyH_take (i := 3) (v := .int .i64 sq) rfl (by kernel_rfl) (by kernel_rfl) (by kernel_rfl) (fun _ _ _ h => h) (Or.inl ⟨by rfl, fun w9 hS9 => by have z4 := (hS9.cell (p := ⟨w.heap.size, 4, none⟩) hlp).trans p4; go_simp; try with_reducible rfl⟩) hS0 ?_
  change wpAnyH _ _ _ _ _ _ _ (Act.put _ (some 48) _) _; dsimp only [Act.put]; simp only [List.setIfInBounds_toArray, List.set_cons_succ, List.set_cons_zero]
  refine wpAnyH_take (i := 4) (v := .agg #[.string sp, .int .i64 sc, .bool true, .int .i64 sq]) rfl (by kernel_rfl) (by kernel_rfl) (by kernel_rfl) (fun _ _ _ h => h) (Or.inl ⟨by rfl, fun w9 hS9 => exec_buildKA (.tmp 46) (.tmp 48) rfl sp sc sq (by first | rfl | simp [Act.eval, Act.put]) (by first | rfl | simp [Act.eval, Act.put])⟩) hS0 ?_
  change wpAnyH _ _ _ _ _ _ _ (Act.put _ (some 49) _) _; dsimp only [Act.put]; simp only [List.setIfInBounds_toArray, List.set_cons_succ, List.set_cons_zero]
  refine wpAnyH_take (i := 5) (v := .pointer (some ⟨w.heap.size, 0, none⟩)) rfl (by kernel_rfl) (by kernel_rfl) (by kernel_rfl) (fun _ _ _ h => h) (Yields.yieldsIf (Or.inl ⟨by rfl, fun w9 => by (go_simp; first | done | with_reducible rfl | (intro h9; exfalso; omega))⟩)) hS0 ?_
  change wpAnyH _ _ _ _ _ _ _ (Act.put _ (some 50) _) _; dsimp only [Act.put]; simp only [List.setIfInBounds_toArray, List.set_cons_succ, List.set_cons_zero]
  refine wpAnyH_take (i := 6) (v := .agg #[.string sp, .int .i64 sc]) rfl (by kernel_rfl) (by kernel_rfl) (by kernel_rfl) (fun _ _ _ h => h) (Or.inl ⟨by rfl, fun w9 hS9 => by have z0 := (hS9.cell (p := ⟨w.heap.size, 0, none⟩) hlp).trans p0; have z1 := (hS9.cell (p := ⟨w.heap.size, 1, none⟩) hlp).trans p1; go_simp; try with_reducible rfl⟩) hS0 ?_
  change wpAnyH _ _ _ _ _ _ _ (Act.put _ (some 51) _) _; dsimp only [Act.put]; simp only [List.setIfInBounds_toArray, List.set_cons_succ, List.set_cons_zero]
  refine wpAnyH_take (i := 7) (v := .pointer (some ⟨w.heap.size, 4, none⟩)) rfl (by kernel_rfl) (by kernel_rfl) (by kernel_rfl) (fun _ _ _ h => h) (Yields.yieldsIf (Or.inl ⟨by rfl, fun w9 => by (go_simp; first | done | with_reducible rfl | (intro h9; exfalso; omega))⟩)) hS0 ?_
  change wpAnyH _ _ _ _ _ _ _ (Act.put _ (some 52) _) _; dsimp only [Act.put]; simp only [List.setIfInBounds_toArray, List.set_cons_succ, List.set_cons_zero]
  refine wpAnyH_take (i := 8) (v := .int .i64 sq) rfl (by kernel_rfl) (by kernel_rfl) (by kernel_rfl) (fun _ _ _ h => h) (Or.inl ⟨by rfl, fun w9 hS9 => by have z4 := (hS9.cell (p := ⟨w.heap.size, 4, none⟩) hlp).trans p4; go_simp; try with_reducible rfl⟩) hS0 ?_
  change wpAnyH _ _ _ _ _ _ _ (Act.put _ (some 53) _) _; dsimp only [Act.put]; simp only [List.setIfInBounds_toArray, List.set_cons_succ, List.set_cons_zero]
  refine wpAnyH_take (i := 9) (v := .agg #[.string sp, .int .i64 sc, .bool false, .int .i64 sq]) rfl (by kernel_rfl) (by kernel_rfl) (by kernel_rfl) (fun _ _ _ h => h) (Or.inl ⟨by rfl, fun w9 hS9 => exec_buildKB (.tmp 51) (.tmp 53) rfl sp sc sq (by first | rfl | simp [Act.eval, Act.put]) (by first | rfl | simp [Act.eval, Act.put])⟩) hS0 ?_
  change wpAnyH _ _ _ _ _ _ _ (Act.put _ (some 54) _) _; dsimp only [Act.put]; simp only [List.setIfInBounds_toArray, List.set_cons_succ, List.set_cons_zero]
  refine wpAnyH_ready (rs := [10, 11]) (by kernel_rfl) (by simp) ?_
  refine AllReadyH.cons rfl (fun K hK => ?_) (AllReadyH.cons rfl (fun K hK => ?_) (fun j hj => by cases hj))
  · go_simp
    have hS1 := hS0.alloc hS0.size (.cells #[.string ⟨#[]⟩, .int .i64 0, .bool false, .int .i64 0] 62)
    refine (Shut.out hK) _ _ hS1 (fun _ => ?_)
    clear hK K
    refine wpAnyH_ready (rs := [11]) (by kernel_rfl) (by simp) ?_
    refine AllReadyH.cons rfl (fun K hK => ?_) (fun j hj => by cases hj)
    go_simp
    have hS2 := hS1.alloc hS1.size (.cells #[.string ⟨#[]⟩, .int .i64 0, .bool false, .int .i64 0] 62)
    refine (Shut.out hK) _ _ hS2 (fun _ => ?_)
    clear hK K
    refine wpAnyH_ready (rs := [12]) (by kernel_rfl) (by simp) ?_
    refine AllReadyH.cons rfl (fun K hK => ?_) (fun j hj => by cases hj)
    have zA : ((w13.alloc (.cells #[.string ⟨#[]⟩, .int .i64 0, .bool false, .int .i64 0] 62)).alloc (.cells #[.string ⟨#[]⟩, .int .i64 0, .bool false, .int .i64 0] 62)).heap[w13.heap.size]? = some (.cells #[.string ⟨#[]⟩, .int .i64 0, .bool false, .int .i64 0] 62 (0, 0)) := al2_0 w13 _ _
    have zB : ((w13.alloc (.cells #[.string ⟨#[]⟩, .int .i64 0, .bool false, .int .i64 0] 62)).alloc (.cells #[.string ⟨#[]⟩, .int .i64 0, .bool false, .int .i64 0] 62)).heap[w13.heap.size + 1]? = some (.cells #[.string ⟨#[]⟩, .int .i64 0, .bool false, .int .i64 0] 62 (0, 0)) := al2_1 w13 _ _
    refine step_storeRowG (g := w13.heap.size) (Y := #[.string ⟨#[]⟩, .int .i64 0, .bool false, .int .i64 0]) (Z := #[.string sp, .int .i64 sc, .bool true, .int .i64 sq]) rfl (.tmp 10) (.tmp 49) 62 rfl (by kernel_rfl) (by first | rfl | simp [Act.eval, Act.put]) (by first | rfl | simp [Act.eval, Act.put]) zA rfl (by simp [Value.oneCell']) ?_
    have hS3 := below_setRow (g := w13.heap.size) (cs := #[.string sp, .int .i64 sc, .bool true, .int .i64 sq]) hS2 (by omega)
    refine (Shut.out hK) _ _ hS3 (fun _ => ?_)
    clear hK K
    change wpAnyH _ _ _ _ _ _ _ (Act.put _ none _) _; dsimp only [Act.put]
    refine wpAnyH_ready (rs := [13]) (by kernel_rfl) (by simp) ?_
    refine AllReadyH.cons rfl (fun K hK => ?_) (fun j hj => by cases hj)
    refine step_storeRowG (g := w13.heap.size + 1) (Y := #[.string ⟨#[]⟩, .int .i64 0, .bool false, .int .i64 0]) (Z := #[.string sp, .int .i64 sc, .bool false, .int .i64 sq]) rfl (.tmp 11) (.tmp 54) 62 rfl (by kernel_rfl) (by first | rfl | simp [Act.eval, Act.put]) (by first | rfl | simp [Act.eval, Act.put]) (setRow_othS zB (by omega)) rfl (by simp [Value.oneCell']) ?_
    have hS4 := below_setRow (g := w13.heap.size + 1) (cs := #[.string sp, .int .i64 sc, .bool false, .int .i64 sq]) hS3 (by omega)
    refine (Shut.out hK) _ _ hS4 (fun _ => ?_)
    clear hK K
    change wpAnyH _ _ _ _ _ _ _ (Act.put _ none _) _; dsimp only [Act.put]
    refine wpAnyH_done (by kernel_rfl) ?_ _
    exact HK _ (w13.heap.size) (w13.heap.size + 1) hS4 (setRow_othS (setRow_heap _ _ #[.string ⟨#[]⟩, .int .i64 0, .bool false, .int .i64 0] #[.string sp, .int .i64 sc, .bool true, .int .i64 sq] _ _ zA) (by omega)) (setRow_heap _ _ #[.string ⟨#[]⟩, .int .i64 0, .bool false, .int .i64 0] #[.string sp, .int .i64 sc, .bool false, .int .i64 sq] _ _ (setRow_othS zB (by omega)))
  · go_simp
    have hS1 := hS0.alloc hS0.size (.cells #[.string ⟨#[]⟩, .int .i64 0, .bool false, .int .i64 0] 62)
    refine (Shut.out hK) _ _ hS1 (fun _ => ?_)
    clear hK K
    refine wpAnyH_ready (rs := [10]) (by kernel_rfl) (by simp) ?_
    refine AllReadyH.cons rfl (fun K hK => ?_) (fun j hj => by cases hj)
    go_simp
    have hS2 := hS1.alloc hS1.size (.cells #[.string ⟨#[]⟩, .int .i64 0, .bool false, .int .i64 0] 62)
    refine (Shut.out hK) _ _ hS2 (fun _ => ?_)
    clear hK K
    refine wpAnyH_ready (rs := [12]) (by kernel_rfl) (by simp) ?_
    refine AllReadyH.cons rfl (fun K hK => ?_) (fun j hj => by cases hj)
    have zA : ((w13.alloc (.cells #[.string ⟨#[]⟩, .int .i64 0, .bool false, .int .i64 0] 62)).alloc (.cells #[.string ⟨#[]⟩, .int .i64 0, .bool false, .int .i64 0] 62)).heap[w13.heap.size + 1]? = some (.cells #[.string ⟨#[]⟩, .int .i64 0, .bool false, .int .i64 0] 62 (0, 0)) := al2_1 w13 _ _
    have zB : ((w13.alloc (.cells #[.string ⟨#[]⟩, .int .i64 0, .bool false, .int .i64 0] 62)).alloc (.cells #[.string ⟨#[]⟩, .int .i64 0, .bool false, .int .i64 0] 62)).heap[w13.heap.size]? = some (.cells #[.string ⟨#[]⟩, .int .i64 0, .bool false, .int .i64 0] 62 (0, 0)) := al2_0 w13 _ _
    refine step_storeRowG (g := w13.heap.size + 1) (Y := #[.string ⟨#[]⟩, .int .i64 0, .bool false, .int .i64 0]) (Z := #[.string sp, .int .i64 sc, .bool true, .int .i64 sq]) rfl (.tmp 10) (.tmp 49) 62 rfl (by kernel_rfl) (by first | rfl | simp [Act.eval, Act.put]) (by first | rfl | simp [Act.eval, Act.put]) zA rfl (by simp [Value.oneCell']) ?_
    have hS3 := below_setRow (g := w13.heap.size + 1) (cs := #[.string sp, .int .i64 sc, .bool true, .int .i64 sq]) hS2 (by omega)
    refine (Shut.out hK) _ _ hS3 (fun _ => ?_)
    clear hK K
    change wpAnyH _ _ _ _ _ _ _ (Act.put _ none _) _; dsimp only [Act.put]
    refine wpAnyH_ready (rs := [13]) (by kernel_rfl) (by simp) ?_
    refine AllReadyH.cons rfl (fun K hK => ?_) (fun j hj => by cases hj)
    refine step_storeRowG (g := w13.heap.size) (Y := #[.string ⟨#[]⟩, .int .i64 0, .bool false, .int .i64 0]) (Z := #[.string sp, .int .i64 sc, .bool false, .int .i64 sq]) rfl (.tmp 11) (.tmp 54) 62 rfl (by kernel_rfl) (by first | rfl | simp [Act.eval, Act.put]) (by first | rfl | simp [Act.eval, Act.put]) (setRow_othS zB (by omega)) rfl (by simp [Value.oneCell']) ?_
    have hS4 := below_setRow (g := w13.heap.size) (cs := #[.string sp, .int .i64 sc, .bool false, .int .i64 sq]) hS3 (by omega)
    refine (Shut.out hK) _ _ hS4 (fun _ => ?_)
    clear hK K
    change wpAnyH _ _ _ _ _ _ _ (Act.put _ none _) _; dsimp only [Act.put]
    refine wpAnyH_done (by kernel_rfl) ?_ _
    exact HK _ (w13.heap.size + 1) (w13.heap.size) hS4 (setRow_othS (setRow_heap _ _ #[.string ⟨#[]⟩, .int .i64 0, .bool false, .int .i64 0] #[.string sp, .int .i64 sc, .bool true, .int .i64 sq] _ _ zA) (by omega)) (setRow_heap _ _ #[.string ⟨#[]⟩, .int .i64 0, .bool false, .int .i64 0] #[.string sp, .int .i64 sc, .bool false, .int .i64 sq] _ _ (setRow_othS zB (by omega)))
end Go.Proofs.Ytbckncopdkmoeaa
