/- Events that are light. -/
import Derived.Test.YtcbacchelabljaaEvP
import Derived.Test.YtcbacchelabljaaOpen
import Derived.Deep.MidRow
import Derived.Deep.Cut
import Derived.WalkKit
import Derived.ProofKit
import Derived.Handy
import Derived.Below
import Derived.BigQuiet
import Derived.Lib.Hide
import Derived.IntWalk
import Derived.Outline
import Derived.WalkLawsBesides
import Derived.WalkSpells
namespace Go.Proofs.Ytcbacchelabljaa
open Go.RowKit
attribute [local go_sem] strV
set_option linter.unusedVariables false
def lightP (sp dp da : ByteArray) : Bool := decide ((sp.size : Int) ≤ 60) && decide ((dp.size : Int) ≤ 60) && decide ((da.size : Int) ≤ 600)
def lightE (e : Ev) : Bool := lightP e.sp e.dp e.da && decide ((e.ack.size : Int) ≤ 100) && decide ((e.ep.size : Int) ≤ 60)
def lightL (es : List Ev) : Bool := decide (es.length ≤ 60) && es.all lightE
def Ev.cells (e : Ev) : List Value := e.row.toList
theorem Ev.cells_len (e : Ev) : e.cells.length = 13 := rfl
set_option maxRecDepth 100000 in
set_option maxHeartbeats 1600000 in
theorem lightP_any (sp : ByteArray) (sc : Int) (dp : ByteArray) (dc sq : Int) (da : ByteArray) (th ta : Int) (w : World) :
    Calls Try.prog 45 #[.agg #[.string sp, .int .i64 sc, .string dp, .int .i64 dc, .int .i64 sq, .string da, .int .i64 th, .int .i64 ta]] w fun e w' => e = .returned (.bool (lightP sp dp da)) ∧ Below w.heap.size w w' := by
  unfold lightP
  cases x1 : decide ((sp.size : Int) ≤ 60)
  all_goals cases x2 : decide ((dp.size : Int) ≤ 60)
  all_goals
    go_enter Try.func45, Try.ntmps45
    go_wp2
    go_ret
    exact ⟨by first | rfl | (simp; done), Below.alloc (Below.refl _ _) (Nat.le_refl _) _⟩
theorem ev_at {w : World} {a : Option Addr} {es : List Ev} (h : RowAt w a (es.flatMap Ev.cells)) {k : Nat} (hk : k < es.length) :
    ∃ b off, a = some ⟨b, off, none⟩ ∧ b < w.heap.size ∧ ∀ j, j < 13 → w.cell? ⟨b, off + k * 13 + j, none⟩ = es[k].cells[j]? := by
  obtain ⟨b, off, ha, hb, hc⟩ := h.elem Ev.cells_len hk (by omega)
  exact ⟨b, off, ha, hb, fun j hj => by rw [Nat.add_assoc]; exact hc j hj⟩
set_option maxRecDepth 100000 in
set_option maxHeartbeats 6400000 in
theorem lightL_any (a : Option Addr) (n cap : Nat) (es : List Ev) (w : World) (hr : RowAt w a (es.flatMap Ev.cells)) (hn : es.length = n) :
    Calls Try.prog 19 #[.slice a n cap] w fun e w' => e = .returned (.bool (lightL es)) ∧ Below w.heap.size w w' := by
  have HN := Lib.hid hn
  by_cases h60 : 60 < n
  · have hF : lightL es = false := by unfold lightL; rw [decide_eq_false (by omega)]; rfl
    rw [hF]; clear hF hn
    go_enter Try.func19, Try.ntmps19
    go_wp2
    go_ret
    exact ⟨rfl, Below.refl _ _⟩
  obtain ⟨r, hF⟩ : ∃ r, (es.all lightE) = r := ⟨_, rfl⟩
  have hF2 : lightL es = r := by unfold lightL; rw [decide_eq_true (by omega)]; exact hF
  rw [hF2]; clear hn hF2
  have HF := Lib.hid hF
  clear hF
  go_enter Try.func19, Try.ntmps19
  go_wp2
  go_loopw [3] (fun i W => ∃ k : Nat, k ≤ n ∧ ((es.take k).all lightE) = true ∧ i = .int .i64 k ∧ Below w.heap.size w W) (fun i _ => n - (intOf i).toNat)
  case atStart => exact ⟨0, by omega, by simp, rfl, Below.refl _ _⟩
  case round =>
    obtain ⟨k, hk, hall, rfl, hbel⟩ := hrel
    by_cases hlt : k < n
    · have hkl : k < es.length := by rw [HN.out]; exact hlt
      obtain ⟨b, off, rfl, hb, hc⟩ := ev_at (hr.below hbel) hkl
      obtain ⟨⟨kd, sp, sc, dp, dc, sq, da, th, ta, ack, ep, ec, ht⟩, hp⟩ : ∃ p, es[k] = p := ⟨_, rfl⟩
      rw [hp] at hc
      have c9 : wr.cell? ⟨b, off + k * 13 + 9, none⟩ = some (.string ack) := hc 9 (by omega)
      have c10 : wr.cell? ⟨b, off + k * 13 + 10, none⟩ = some (.string ep) := hc 10 (by omega)
      have hrp : wr.rangeAt b (off + k * 13 + 1) [.string sp, .int .i64 sc, .string dp, .int .i64 dc, .int .i64 sq, .string da, .int .i64 th, .int .i64 ta] := fun j v hv => by
        have hj : j < 8 := by have := (List.getElem?_eq_some_iff.1 hv).1; simpa using this
        rw [show off + k * 13 + 1 + j = off + k * 13 + (1 + j) by omega, hc (1 + j) (by omega), ← hv]
        rcases j with _ | _ | _ | _ | _ | _ | _ | _ | j
        all_goals first | rfl | omega
      have CL := fun W => lightP_any sp sc dp dc sq da th ta W
      obtain ⟨lp, hlp⟩ : ∃ b, lightP sp dp da = b := ⟨_, rfl⟩
      simp only [hlp] at CL
      have hle : lightE ⟨kd, sp, sc, dp, dc, sq, da, th, ta, ack, ep, ec, ht⟩ = (lp && decide ((ack.size : Int) ≤ 100) && decide ((ep.size : Int) ≤ 60)) := by unfold lightE; simp only; rw [hlp]
      have hbad : lightE ⟨kd, sp, sc, dp, dc, sq, da, th, ta, ack, ep, ec, ht⟩ = false → r = false := fun h => by
        rw [← HF.out, List.all_eq_false]; exact ⟨_, List.getElem_mem hkl, by rw [hp, h]; decide⟩
      have hgood : lightE ⟨kd, sp, sc, dp, dc, sq, da, th, ta, ack, ep, ec, ht⟩ = true → ((es.take (k + 1)).all lightE) = true := fun h => by
        rw [List.take_add_one, List.all_append, hall, List.getElem?_eq_getElem hkl, hp]; simp [h]
      have HG := hgood
      clear hgood hlp hp hc hall hr hkl
      cases lp
      · obtain rfl := hbad (by rw [hle]; rfl)
        clear hle hbad HG
        go_upto_region 6 with fail
        go_wp2_with (first | (refine wpList_load_mid rfl 41 (.tmp 16) rfl b _ rfl _ _ hrp Try.underlying41 rfl (by kernel_rfl) ?_) | (go_at_call 45; refine (CL _).mono ?_; rintro e w2 ⟨rfl, hb2⟩))
        go_ret
        exact ⟨rfl, hbel.trans (hb2.mono hbel.size)⟩
      by_cases x1 : 100 < ack.size
      · obtain rfl := hbad (by rw [hle, decide_eq_false (by omega)]; rfl)
        clear hle hbad HG
        go_upto_region 6 with fail
        go_wp2_with (first | (refine wpList_load_mid rfl 41 (.tmp 16) rfl b _ rfl _ _ hrp Try.underlying41 rfl (by kernel_rfl) ?_) | (go_at_call 45; refine (CL _).mono ?_; rintro e w2 ⟨rfl, hb2⟩; obtain ⟨hx, _⟩ := bcell hb2))
        go_ret
        exact ⟨rfl, hbel.trans (hb2.mono hbel.size)⟩
      by_cases x2 : 60 < ep.size
      · obtain rfl := hbad (by rw [hle, decide_eq_true (p := (ack.size : Int) ≤ 100) (by omega), decide_eq_false (by omega)]; rfl)
        clear hle hbad HG
        go_upto_region 6 with fail
        go_wp2_with (first | (refine wpList_load_mid rfl 41 (.tmp 16) rfl b _ rfl _ _ hrp Try.underlying41 rfl (by kernel_rfl) ?_) | (go_at_call 45; refine (CL _).mono ?_; rintro e w2 ⟨rfl, hb2⟩; obtain ⟨hx, _⟩ := bcell hb2))
        go_ret
        exact ⟨rfl, hbel.trans (hb2.mono hbel.size)⟩
      have HG2 := HG (by rw [hle, decide_eq_true (p := (ack.size : Int) ≤ 100) (by omega), decide_eq_true (by omega)]; rfl)
      clear hle hbad HG
      have HG3 := Lib.hid HG2
      clear HG2
      go_upto_region 6 with fail
      go_wp2_with (first | (refine wpList_load_mid rfl 41 (.tmp 16) rfl b _ rfl _ _ hrp Try.underlying41 rfl (by kernel_rfl) ?_) | (go_at_call 45; refine (CL _).mono ?_; rintro e w2 ⟨rfl, hb2⟩; obtain ⟨hx, _⟩ := bcell hb2))
      go_roundw
      case rel => exact ⟨k + 1, by omega, HG3.out, by go_num, hbel.trans (hb2.mono hbel.size)⟩
      case measure => (simp [intOf]) <;> omega
    · have hF : (es.all lightE) = true := by
        rw [← hall, List.take_of_length_le (by rw [HN.out]; omega)]
      obtain rfl : true = r := hF.symm.trans HF.out
      clear hF
      go_wp2
      go_ret
      exact ⟨rfl, hbel⟩
end Go.Proofs.Ytcbacchelabljaa
