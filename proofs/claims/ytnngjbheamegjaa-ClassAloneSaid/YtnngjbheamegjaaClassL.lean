/- Package class and ligref22's answer to it: lists of packets. -/
import Derived.Test.YtnngjbheamegjaaClass
import Derived.Test.YtnngjbheamegjaaRows2
import Derived.WalkKit
import Derived.ProofKit
import Derived.Handy
import Derived.Below
import Derived.Lib.Hide
import Derived.IntWalk
import Derived.Outline
import Derived.WalkLawsBesides
import Derived.WalkSpells
namespace Go.Proofs.Ytnngjbheamegjaa
open Go.RowKit

def Pk.cells (p : Pk) : List Value := [.int .i64 p.seq, .int .i64 p.th, .int .i64 p.ta, .bool p.kept, .bool p.shown, .bool p.received, .bool p.done, .bool p.acked]
theorem Pk.cells_len (p : Pk) : p.cells.length = 8 := rfl
/-- A packet at address (b, o). -/
structure PkAt (w : World) (b o : Nat) (p : Pk) : Prop where
  c0 : w.cell? ⟨b, o, none⟩ = some (.int .i64 p.seq)
  c1 : w.cell? ⟨b, o + 1, none⟩ = some (.int .i64 p.th)
  c2 : w.cell? ⟨b, o + 2, none⟩ = some (.int .i64 p.ta)
  c3 : w.cell? ⟨b, o + 3, none⟩ = some (.bool p.kept)
  c4 : w.cell? ⟨b, o + 4, none⟩ = some (.bool p.shown)
  c5 : w.cell? ⟨b, o + 5, none⟩ = some (.bool p.received)
  c6 : w.cell? ⟨b, o + 6, none⟩ = some (.bool p.done)
  c7 : w.cell? ⟨b, o + 7, none⟩ = some (.bool p.acked)
theorem pk_at {w : World} {a : Option Addr} {ps : List Pk} (h : RowAt w a (ps.flatMap Pk.cells)) {k : Nat} (hk : k < ps.length) :
    ∃ b off, a = some ⟨b, off, none⟩ ∧ b < w.heap.size ∧ PkAt w b (off + k * 8) ps[k] := by
  obtain ⟨b, off, ha, hb, hc⟩ := h.elem Pk.cells_len hk (by omega)
  refine ⟨b, off, ha, hb, ?_⟩
  have e : ∀ j, off + (k * 8 + j) = off + k * 8 + j := fun j => by omega
  simp only [e] at hc
  exact ⟨hc 0 (by omega), hc 1 (by omega), hc 2 (by omega), hc 3 (by omega), hc 4 (by omega), hc 5 (by omega), hc 6 (by omega), hc 7 (by omega)⟩

def riseB : List Pk → Bool
  | p :: q :: l => decide (p.seq < q.seq) && riseB (q :: l)
  | _ => true
theorem rise_step {ps : List Pk} {k : Nat} (h : k + 1 < ps.length) : riseB (ps.drop k) = (decide (ps[k].seq < ps[k + 1].seq) && riseB (ps.drop (k + 1))) := by
  rw [List.drop_eq_getElem_cons (show k < ps.length by omega), List.drop_eq_getElem_cons h, riseB]
theorem rise_end {ps : List Pk} {k : Nat} (h : ps.length ≤ k + 1) : riseB (ps.drop k) = true := by
  match hd : ps.drop k with
  | [] => rfl
  | [_] => rfl
  | _ :: _ :: l =>
    have := congrArg List.length hd
    rw [List.length_drop] at this
    simp only [List.length_cons] at this
    omega

set_option maxRecDepth 100000 in
set_option maxHeartbeats 400000 in
theorem rise_any (a : Option Addr) (cap : Nat) (ps : List Pk) (w : World) (hr : RowAt w a (ps.flatMap Pk.cells)) (hl : ps.length ≤ maxLen) :
    Calls Try.prog 20 #[.slice a ps.length cap] w fun e w' => e = .returned (.bool (riseB ps)) ∧ Below w.heap.size w w' := by
  unfold maxLen at hl
  obtain ⟨n, hn⟩ : ∃ n, ps.length = n := ⟨_, rfl⟩
  rw [hn] at hl ⊢
  have HN := Lib.hid hn; clear hn
  go_enter Try.func20, Try.ntmps20
  go_wp2
  go_loopw [3] (fun i wr => ∃ k : Nat, Hid (riseB (ps.drop k) = riseB ps) ∧ Below w.heap.size w wr ∧ i = .int .i64 ((k : Int) + 1)) (fun i _ => n - (intOf i).toNat)
  case atStart => exact ⟨0, Lib.hid rfl, Below.refl _ _, rfl⟩
  case round =>
    obtain ⟨k, HR, hbel, rfl⟩ := hrel
    by_cases hlt : k + 1 < n
    · obtain ⟨b, off, rfl, hbl, hp⟩ := pk_at (hr.below hbel) (k := k) (by rw [HN.out]; omega)
      obtain ⟨b', off', e, hbl', hq⟩ := pk_at (hr.below hbel) (k := k + 1) (by rw [HN.out]; omega)
      simp only [Option.some.injEq, Addr.mk.injEq, and_true] at e
      obtain ⟨rfl, rfl⟩ := e
      have hst := rise_step (ps := ps) (k := k) (by rw [HN.out]; exact hlt)
      have hc1 := hp.c0
      have hc2 := hq.c0
      clear hp hq
      generalize ps[k]'(by rw [HN.out]; omega) = x at hc1 hst
      generalize ps[k + 1]'(by rw [HN.out]; omega) = y at hc2 hst
      generalize x.seq = X at *
      generalize y.seq = Y at *
      by_cases hxy : X < Y
      · have HS : Hid (riseB (ps.drop (k + 1)) = riseB ps) := Lib.hid (by rw [← HR.out, hst, decide_eq_true hxy, Bool.true_and])
        clear hst
        go_wp2
        go_quiet (fail)
        go_wp2
        go_roundw
        case rel => exact ⟨k + 1, HS, hbel.trans ((drewN_below _ _).mono hbel.size), by go_num⟩
        case measure => simp [intOf]; omega
      · have HS : Hid (riseB ps = false) := Lib.hid (by rw [← HR.out, hst, decide_eq_false hxy, Bool.false_and])
        clear hst
        go_wp2
        go_quiet (fail)
        go_wp2
        go_ret
        exact ⟨by rw [HS.out]; rfl, hbel.trans ((drewN_below _ _).mono hbel.size)⟩
    · have HS : Hid (riseB ps = true) := Lib.hid (by rw [← HR.out]; exact rise_end (by rw [HN.out]; omega))
      go_wp2
      go_ret
      exact ⟨by rw [HS.out]; rfl, hbel⟩
set_option maxRecDepth 100000 in
set_option maxHeartbeats 400000 in
theorem refRise_any (a : Option Addr) (cap : Nat) (ps : List Pk) (w : World) (hr : RowAt w a (ps.flatMap Pk.cells)) (hl : ps.length ≤ maxLen) :
    Calls Try.prog 21 #[.slice a ps.length cap] w fun e w' => e = .returned (.bool (riseB ps)) ∧ Below w.heap.size w w' := by
  unfold maxLen at hl
  obtain ⟨n, hn⟩ : ∃ n, ps.length = n := ⟨_, rfl⟩
  rw [hn] at hl ⊢
  have HN := Lib.hid hn; clear hn
  go_enter Try.func21, Try.ntmps21
  go_wp2
  go_loopw [3] (fun i wr => ∃ k : Nat, Hid (riseB (ps.drop k) = riseB ps) ∧ Below w.heap.size w wr ∧ i = .int .i64 ((k : Int) + 1)) (fun i _ => n - (intOf i).toNat)
  case atStart => exact ⟨0, Lib.hid rfl, Below.refl _ _, rfl⟩
  case round =>
    obtain ⟨k, HR, hbel, rfl⟩ := hrel
    by_cases hlt : k + 1 < n
    · obtain ⟨b, off, rfl, hbl, hp⟩ := pk_at (hr.below hbel) (k := k) (by rw [HN.out]; omega)
      obtain ⟨b', off', e, hbl', hq⟩ := pk_at (hr.below hbel) (k := k + 1) (by rw [HN.out]; omega)
      simp only [Option.some.injEq, Addr.mk.injEq, and_true] at e
      obtain ⟨rfl, rfl⟩ := e
      have hst := rise_step (ps := ps) (k := k) (by rw [HN.out]; exact hlt)
      have hc1 := hp.c0
      have hc2 := hq.c0
      clear hp hq
      generalize ps[k]'(by rw [HN.out]; omega) = x at hc1 hst
      generalize ps[k + 1]'(by rw [HN.out]; omega) = y at hc2 hst
      generalize x.seq = X at *
      generalize y.seq = Y at *
      by_cases hxy : X < Y
      · have HS : Hid (riseB (ps.drop (k + 1)) = riseB ps) := Lib.hid (by rw [← HR.out, hst, decide_eq_true hxy, Bool.true_and])
        clear hst
        go_wp2
        go_quiet (fail)
        go_wp2
        go_roundw
        case rel => exact ⟨k + 1, HS, hbel.trans ((drewN_below _ _).mono hbel.size), by go_num⟩
        case measure => simp [intOf]; omega
      · have HS : Hid (riseB ps = false) := Lib.hid (by rw [← HR.out, hst, decide_eq_false hxy, Bool.false_and])
        clear hst
        go_wp2
        go_quiet (fail)
        go_wp2
        go_ret
        exact ⟨by rw [HS.out]; rfl, hbel.trans ((drewN_below _ _).mono hbel.size)⟩
    · have HS : Hid (riseB ps = true) := Lib.hid (by rw [← HR.out]; exact rise_end (by rw [HN.out]; omega))
      go_wp2
      go_ret
      exact ⟨by rw [HS.out]; rfl, hbel⟩

/-! ### The classes of a list -/
def clsL (c : Chn) : Int → Int → List Pk → List Int
  | _, _, [] => []
  | na, nr, p :: l =>
    if p.kept = false then 0 :: clsL c na nr l
    else if acksB c p na then 2 :: clsL c (wrap64 (p.seq + 1)) nr l
    else if recvB c p nr then 1 :: clsL c na (wrap64 (p.seq + 1)) l
    else (if lostB c p then endI c p else 5) :: clsL c na nr l
theorem clsL_len (c : Chn) (ps : List Pk) : ∀ na nr, (clsL c na nr ps).length = ps.length := by
  induction ps with
  | nil => intros; rfl
  | cons p l ih => intro na nr; unfold clsL; (repeat' split) <;> simp [ih]
def ofL (c : Chn) (ps : List Pk) : List Int := if riseB ps then clsL c c.nextAck c.nextRecv ps else []

theorem rise_n {a : Option Addr} {cap n : Nat} {ps : List Pk} {w : World} (hr : RowAt w a (ps.flatMap Pk.cells)) (hn : ps.length = n) (hl : n ≤ maxLen) :
    Calls Try.prog 20 #[.slice a n cap] w fun e w' => e = .returned (.bool (riseB ps)) ∧ Below w.heap.size w w' := by
  subst hn; exact rise_any a cap ps w hr hl
theorem refRise_n {a : Option Addr} {cap n : Nat} {ps : List Pk} {w : World} (hr : RowAt w a (ps.flatMap Pk.cells)) (hn : ps.length = n) (hl : n ≤ maxLen) :
    Calls Try.prog 21 #[.slice a n cap] w fun e w' => e = .returned (.bool (riseB ps)) ∧ Below w.heap.size w w' := by
  subst hn; exact refRise_any a cap ps w hr hl
theorem clsL_drop {c : Chn} {ps : List Pk} {na nr : Int} {k : Nat} (hk : k < ps.length) :
    clsL c na nr (ps.drop k) = if ps[k].kept = false then 0 :: clsL c na nr (ps.drop (k + 1))
      else if acksB c ps[k] na then 2 :: clsL c (wrap64 (ps[k].seq + 1)) nr (ps.drop (k + 1))
      else if recvB c ps[k] nr then 1 :: clsL c na (wrap64 (ps[k].seq + 1)) (ps.drop (k + 1))
      else (if lostB c ps[k] then endI c ps[k] else 5) :: clsL c na nr (ps.drop (k + 1)) := by
  rw [List.drop_eq_getElem_cons hk, clsL]
end Go.Proofs.Ytnngjbheamegjaa
