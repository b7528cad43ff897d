/- Package class and ligref22's answer to it: one packet. -/
import Derived.Test.YtnngjbheamegjaaRows
import Derived.Test.YtnngjbheamegjaaSlices
import Derived.WalkKit
import Derived.ProofKit
import Derived.Handy
import Derived.Below
import Derived.Lib.Hide
import Derived.IntWalk
import Derived.Outline
import Derived.WalkLawsBesides
import Derived.WalkSpells
namespace Go.Proofs.Ytnngjbheamegjaa
open Go.RowKit

structure Chn where
  ordered : Bool
  opn : Bool
  otherOpen : Bool
  otherClosed : Bool
  stop : Int
  nextRecv : Int
  nextDone : Int
  nextAck : Int
  height : Int
  time : Int
  atHeight : Int
  atTime : Int
  srcHeight : Int
def Chn.v (c : Chn) : Value := .agg #[.bool c.ordered, .bool c.opn, .bool c.otherOpen, .bool c.otherClosed, .int .i64 c.stop, .int .i64 c.nextRecv, .int .i64 c.nextDone, .int .i64 c.nextAck, .int .i64 c.height, .int .i64 c.time, .int .i64 c.atHeight, .int .i64 c.atTime, .int .i64 c.srcHeight]
structure Pk where
  seq : Int
  th : Int
  ta : Int
  kept : Bool
  shown : Bool
  received : Bool
  done : Bool
  acked : Bool
def Pk.v (p : Pk) : Value := .agg #[.int .i64 p.seq, .int .i64 p.th, .int .i64 p.ta, .bool p.kept, .bool p.shown, .bool p.received, .bool p.done, .bool p.acked]

def rchB (t n : Int) : Bool := decide (0 < t) && decide (t ≤ n)
def overB (p : Pk) (h t : Int) : Bool := rchB p.th h || rchB p.ta t
def turnB (c : Chn) (p : Pk) (n : Int) : Bool := !c.ordered || (p.seq == n)
def acksB (c : Chn) (p : Pk) (n : Int) : Bool := (c.atHeight != 0) && p.acked && turnB c p n
def recvB (c : Chn) (p : Pk) (n : Int) : Bool := (c.srcHeight != 0) && p.shown && c.otherOpen && !overB p c.height c.time && turnB c p n && (c.ordered || !p.received)
def lostB (c : Chn) (p : Pk) : Bool := (c.atHeight != 0) && (if c.ordered then decide (c.nextDone ≤ p.seq) else !p.done)
def endI (c : Chn) (p : Pk) : Int :=
  if c.opn = false then (if !c.ordered || decide (c.stop ≤ c.nextDone) then 3 else 5)
  else if c.otherClosed then 4
  else if overB p c.atHeight c.atTime && turnB c p c.nextDone then 3 else 5
set_option maxRecDepth 100000 in
set_option maxHeartbeats 400000 in
theorem reached_any (t n : Int) (w : World) :
    Calls Try.prog 40 #[.int .i64 t, .int .i64 n] w fun e w' => e = .returned (.bool (rchB t n)) ∧ w = w' := by
  by_cases h1 : 0 < t
  · by_cases h2 : t ≤ n
    · have h : rchB t n = true := by unfold rchB; rw [decide_eq_true h1, decide_eq_true h2]; rfl
      have H := Lib.hid h; clear h
      go_enter Try.func40, Try.ntmps40
      go_wp2
      go_ret
      exact ⟨by rw [H.out]; rfl, rfl⟩
    · have h : rchB t n = false := by unfold rchB; rw [decide_eq_false h2, Bool.and_false]
      have H := Lib.hid h; clear h
      go_enter Try.func40, Try.ntmps40
      go_wp2
      go_ret
      exact ⟨by rw [H.out]; rfl, rfl⟩
  · have h : rchB t n = false := by unfold rchB; rw [decide_eq_false h1, Bool.false_and]
    have H := Lib.hid h; clear h
    go_enter Try.func40, Try.ntmps40
    go_wp2
    go_ret
    exact ⟨by rw [H.out]; rfl, rfl⟩

set_option maxRecDepth 100000 in
set_option maxHeartbeats 800000 in
theorem over_any {sq pth pta : Int} {kp shn rcv dn ack : Bool} {h t : Int} {w : World} :
    Calls Try.prog 39 #[.agg #[.int .i64 sq, .int .i64 pth, .int .i64 pta, .bool kp, .bool shn, .bool rcv, .bool dn, .bool ack], .int .i64 h, .int .i64 t] w fun e w' => e = .returned (.bool (overB ⟨sq, pth, pta, kp, shn, rcv, dn, ack⟩ h t)) ∧ Below w.heap.size w w' := by
  go_enter Try.func39, Try.ntmps39
  go_wp2_with (go_at_call 40; refine (reached_any _ _ _).mono ?_; rintro e wx ⟨rfl, rfl⟩)
  all_goals go_ret
  all_goals exact ⟨by first | (simp [overB, *]; done) | (simp_all [overB]; done) | (simp_all [overB]; omega), by repeat (first | assumption | exact Below.refl _ _ | refine bch ?_ (by assumption) | refine Below.alloc ?_ (by simp) _)⟩

set_option maxRecDepth 100000 in
set_option maxHeartbeats 800000 in
theorem turn_any {o opn oo oc : Bool} {st nr nd na ht tm ah at_ sh : Int} {sq pth pta : Int} {kp shn rcv dn ack : Bool} {n : Int} {w : World} :
    Calls Try.prog 38 #[.agg #[.bool o, .bool opn, .bool oo, .bool oc, .int .i64 st, .int .i64 nr, .int .i64 nd, .int .i64 na, .int .i64 ht, .int .i64 tm, .int .i64 ah, .int .i64 at_, .int .i64 sh], .agg #[.int .i64 sq, .int .i64 pth, .int .i64 pta, .bool kp, .bool shn, .bool rcv, .bool dn, .bool ack], .int .i64 n] w fun e w' => e = .returned (.bool (turnB ⟨o, opn, oo, oc, st, nr, nd, na, ht, tm, ah, at_, sh⟩ ⟨sq, pth, pta, kp, shn, rcv, dn, ack⟩ n)) ∧ Below w.heap.size w w' := by
  go_enter Try.func38, Try.ntmps38
  go_wp2
  all_goals go_ret
  all_goals exact ⟨by first | (simp [turnB, *]; done) | (simp_all [turnB]; done) | (simp_all [turnB]; omega), by repeat (first | assumption | exact Below.refl _ _ | refine bch ?_ (by assumption) | refine Below.alloc ?_ (by simp) _)⟩

set_option maxRecDepth 100000 in
set_option maxHeartbeats 800000 in
theorem acks_any {o opn oo oc : Bool} {st nr nd na ht tm ah at_ sh : Int} {sq pth pta : Int} {kp shn rcv dn ack : Bool} {n : Int} {w : World} :
    Calls Try.prog 32 #[.agg #[.bool o, .bool opn, .bool oo, .bool oc, .int .i64 st, .int .i64 nr, .int .i64 nd, .int .i64 na, .int .i64 ht, .int .i64 tm, .int .i64 ah, .int .i64 at_, .int .i64 sh], .agg #[.int .i64 sq, .int .i64 pth, .int .i64 pta, .bool kp, .bool shn, .bool rcv, .bool dn, .bool ack], .int .i64 n] w fun e w' => e = .returned (.bool (acksB ⟨o, opn, oo, oc, st, nr, nd, na, ht, tm, ah, at_, sh⟩ ⟨sq, pth, pta, kp, shn, rcv, dn, ack⟩ n)) ∧ Below w.heap.size w w' := by
  go_enter Try.func32, Try.ntmps32
  go_wp2_with (go_at_call 38; refine turn_any.mono ?_; rintro e w1 ⟨rfl, hb⟩; obtain ⟨hc1, hf1⟩ := bcell hb)
  all_goals go_ret
  all_goals exact ⟨by first | (simp [acksB, *]; done) | (simp_all [acksB]; done) | (simp_all [acksB]; omega), by repeat (first | assumption | exact Below.refl _ _ | refine bch ?_ (by assumption) | refine Below.alloc ?_ (by simp) _)⟩

set_option maxRecDepth 100000 in
set_option maxHeartbeats 800000 in
theorem receives_any {o opn oo oc : Bool} {st nr nd na ht tm ah at_ sh : Int} {sq pth pta : Int} {kp shn rcv dn ack : Bool} {n : Int} {w : World} :
    Calls Try.prog 33 #[.agg #[.bool o, .bool opn, .bool oo, .bool oc, .int .i64 st, .int .i64 nr, .int .i64 nd, .int .i64 na, .int .i64 ht, .int .i64 tm, .int .i64 ah, .int .i64 at_, .int .i64 sh], .agg #[.int .i64 sq, .int .i64 pth, .int .i64 pta, .bool kp, .bool shn, .bool rcv, .bool dn, .bool ack], .int .i64 n] w fun e w' => e = .returned (.bool (recvB ⟨o, opn, oo, oc, st, nr, nd, na, ht, tm, ah, at_, sh⟩ ⟨sq, pth, pta, kp, shn, rcv, dn, ack⟩ n)) ∧ Below w.heap.size w w' := by
  go_enter Try.func33, Try.ntmps33
  go_wp2_with (first | (go_at_call 38; refine turn_any.mono ?_; rintro e w1 ⟨rfl, hb⟩; obtain ⟨hc1, hf1⟩ := bcell hb) | (go_at_call 39; refine over_any.mono ?_; rintro e w1 ⟨rfl, hb⟩; obtain ⟨hc1, hf1⟩ := bcell hb; have hz1 : w.heap.size + 1 < w1.heap.size := (by have := hb.size; simp at this; omega); have hz0 : w.heap.size < w1.heap.size := by omega))  
  all_goals go_ret
  all_goals exact ⟨by first | (simp [recvB, *]; done) | (simp_all [recvB]; done) | (simp_all [recvB]; omega), by repeat (first | assumption | exact Below.refl _ _ | refine bch ?_ (by assumption) | refine Below.alloc ?_ (by simp) _)⟩

set_option maxRecDepth 100000 in
set_option maxHeartbeats 800000 in
theorem lost_any {o opn oo oc : Bool} {st nr nd na ht tm ah at_ sh : Int} {sq pth pta : Int} {kp shn rcv dn ack : Bool}  {w : World} :
    Calls Try.prog 34 #[.agg #[.bool o, .bool opn, .bool oo, .bool oc, .int .i64 st, .int .i64 nr, .int .i64 nd, .int .i64 na, .int .i64 ht, .int .i64 tm, .int .i64 ah, .int .i64 at_, .int .i64 sh], .agg #[.int .i64 sq, .int .i64 pth, .int .i64 pta, .bool kp, .bool shn, .bool rcv, .bool dn, .bool ack]] w fun e w' => e = .returned (.bool (lostB ⟨o, opn, oo, oc, st, nr, nd, na, ht, tm, ah, at_, sh⟩ ⟨sq, pth, pta, kp, shn, rcv, dn, ack⟩)) ∧ Below w.heap.size w w' := by
  go_enter Try.func34, Try.ntmps34
  go_wp2
  all_goals go_ret
  all_goals exact ⟨by first | (simp [lostB, *]; done) | (simp_all [lostB]; done) | (simp_all [lostB]; omega), by repeat (first | assumption | exact Below.refl _ _ | refine bch ?_ (by assumption) | refine Below.alloc ?_ (by simp) _)⟩

set_option maxRecDepth 100000 in
set_option maxHeartbeats 800000 in
theorem ending_any {o opn oo oc : Bool} {st nr nd na ht tm ah at_ sh : Int} {sq pth pta : Int} {kp shn rcv dn ack : Bool}  {w : World} :
    Calls Try.prog 35 #[.agg #[.bool o, .bool opn, .bool oo, .bool oc, .int .i64 st, .int .i64 nr, .int .i64 nd, .int .i64 na, .int .i64 ht, .int .i64 tm, .int .i64 ah, .int .i64 at_, .int .i64 sh], .agg #[.int .i64 sq, .int .i64 pth, .int .i64 pta, .bool kp, .bool shn, .bool rcv, .bool dn, .bool ack]] w fun e w' => e = .returned (.int .i64 (endI ⟨o, opn, oo, oc, st, nr, nd, na, ht, tm, ah, at_, sh⟩ ⟨sq, pth, pta, kp, shn, rcv, dn, ack⟩)) ∧ Below w.heap.size w w' := by
  go_enter Try.func35, Try.ntmps35
  go_wp2_with (first | (go_at_call 38; refine turn_any.mono ?_; rintro e w1 ⟨rfl, hb⟩; obtain ⟨hc1, hf1⟩ := bcell hb) | (go_at_call 39; refine over_any.mono ?_; rintro e w1 ⟨rfl, hb⟩; obtain ⟨hc1, hf1⟩ := bcell hb; have hz1 : w.heap.size + 1 < w1.heap.size := (by have := hb.size; simp at this; omega); have hz0 : w.heap.size < w1.heap.size := by omega))  
  all_goals go_ret
  all_goals exact ⟨by first | (simp [endI, *]; done) | (simp_all [endI]; done) | (simp_all [endI]; omega), by repeat (first | assumption | exact Below.refl _ _ | refine bch ?_ (by assumption) | refine Below.alloc ?_ (by simp) _)⟩

end Go.Proofs.Ytnngjbheamegjaa
