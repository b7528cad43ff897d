/- ligkeep.Packet, ligkeep.Channel, ligkeep.Ints, doc, Wants. -/
import Derived.Test.YtnngjbheamegjaaClassOf
import Derived.WalkKit
import Derived.ProofKit
import Derived.Handy
import Derived.Below
import Derived.Lib.Hide
import Derived.IntWalk
import Derived.Outline
import Derived.WalkLawsBesides
import Derived.WalkSpells
namespace Go.Proofs.Ytnngjbheamegjaa
open Go.RowKit

set_option maxRecDepth 100000 in
set_option maxHeartbeats 800000 in
theorem keepPacket_any {sq pth pta : Int} {kp shn rcv dn ack : Bool} {w : World} :
    Calls Try.prog 31 #[.agg #[.int .i64 sq, .int .i64 pth, .int .i64 pta, .bool kp, .bool shn, .bool rcv, .bool dn, .bool ack]] w fun e w' => e = .returned (.agg #[.int .i64 sq, .int .i64 pth, .int .i64 pta, .bool kp, .bool shn, .bool rcv, .bool dn, .bool ack]) ∧ Below w.heap.size w w' := by
  go_enter Try.func31, Try.ntmps31
  go_wp2
  go_returns
  all_goals exact ⟨rfl, by repeat (first | assumption | exact Below.refl _ _ | refine bch ?_ (by assumption) | refine Below.alloc ?_ (by simp) _ | refine Below.setCell ?_ (by simp) _)⟩
set_option maxRecDepth 100000 in
set_option maxHeartbeats 800000 in
theorem keepChannel_any {o opn oo oc : Bool} {st nr nd na ht tm ah at_ sh : Int} {w : World} :
    Calls Try.prog 28 #[.agg #[.bool o, .bool opn, .bool oo, .bool oc, .int .i64 st, .int .i64 nr, .int .i64 nd, .int .i64 na, .int .i64 ht, .int .i64 tm, .int .i64 ah, .int .i64 at_, .int .i64 sh]] w fun e w' => e = .returned (.agg #[.bool o, .bool opn, .bool oo, .bool oc, .int .i64 st, .int .i64 nr, .int .i64 nd, .int .i64 na, .int .i64 ht, .int .i64 tm, .int .i64 ah, .int .i64 at_, .int .i64 sh]) ∧ Below w.heap.size w w' := by
  go_enter Try.func28, Try.ntmps28
  go_wp2
  go_returns
  all_goals exact ⟨rfl, by repeat (first | assumption | exact Below.refl _ _ | refine bch ?_ (by assumption) | refine Below.alloc ?_ (by simp) _ | refine Below.setCell ?_ (by simp) _)⟩

def wantsB (k : Int) : Bool := decide (1 ≤ k ∧ k ≤ 4)
set_option maxRecDepth 100000 in
set_option maxHeartbeats 800000 in
theorem wants_any (k : Int) (w : World) : Calls Try.prog 23 #[.int .i64 k] w fun e w' => e = .returned (.bool (wantsB k)) ∧ w = w' := by
  go_enter Try.func23, Try.ntmps23
  go_wp2
  all_goals go_ret
  all_goals refine ⟨?_, rfl⟩
  all_goals first | (simp [wantsB, *]; done) | (simp_all [wantsB]; done) | (simp [wantsB, *]; omega) | (refine congrArg (fun b => Ending.returned (Value.bool b)) ?_; rw [Bool.eq_iff_iff]; simp [wantsB]; omega)
set_option maxRecDepth 100000 in
set_option maxHeartbeats 800000 in
theorem refWants_any (k : Int) (w : World) : Calls Try.prog 24 #[.int .i64 k] w fun e w' => e = .returned (.bool (wantsB k)) ∧ w = w' := by
  go_enter Try.func24, Try.ntmps24
  go_wp2
  all_goals go_ret
  all_goals refine ⟨?_, rfl⟩
  all_goals first | (simp [wantsB, *]; done) | (simp_all [wantsB]; done) | (simp [wantsB, *]; omega) | (refine congrArg (fun b => Ending.returned (Value.bool b)) ?_; rw [Bool.eq_iff_iff]; simp [wantsB]; omega)

theorem row_get {w : World} {a : Option Addr} {zs : List Int} (h : RowAt w a (zs.map (Value.int .i64))) {k : Nat} (hk : k < zs.length) :
    ∃ b off, a = some ⟨b, off, none⟩ ∧ b < w.heap.size ∧ w.cell? ⟨b, off + k, none⟩ = some (.int .i64 zs[k]) := by
  rcases h with h | ⟨b, off, ha, hlt, hc⟩
  · have := congrArg List.length h; rw [List.length_map] at this; simp only [List.length_nil] at this; omega
  · refine ⟨b, off, ha, hlt, ?_⟩
    rw [hc k (by simpa using hk)]; simp [hk]

theorem beq_at {x y : List Int} (hl : x.length = y.length) (h : ∀ j, j < x.length → x[j]? = y[j]?) : (x == y) = true := by
  rw [beq_iff_eq]
  refine List.ext_getElem? fun j => ?_
  rcases Nat.lt_or_ge j x.length with h' | h'
  · exact h j h'
  · rw [List.getElem?_eq_none h', List.getElem?_eq_none (by omega)]
/- ligkeep.Ints: are the two lists one? -/
set_option maxRecDepth 100000 in
set_option maxHeartbeats 800000 in
theorem ints_any {a a' : Option Addr} {n n' cap cap' : Nat} {x y : List Int} {w : World} (hx : RowAt w a (x.map (Value.int .i64))) (hy : RowAt w a' (y.map (Value.int .i64))) (hn : x.length = n) (hn' : y.length = n') (hm : n ≤ maxLen) (hm' : n' ≤ maxLen) :
    Calls Try.prog 25 #[.slice a n cap, .slice a' n' cap'] w fun e w' => e = .returned (.bool (x == y)) ∧ Below w.heap.size w w' := by
  unfold maxLen at hm hm'
  have HN := Lib.hid hn; have HN' := Lib.hid hn'; clear hn hn'
  by_cases hne : n = n'
  · subst hne
    go_enter Try.func25, Try.ntmps25
    go_wp2
    go_loopw [5] (fun i wr => ∃ k : Nat, k ≤ n ∧ Hid (∀ j, j < k → x[j]? = y[j]?) ∧ Below w.heap.size w wr ∧ i = .int .i64 k) (fun i _ => n - (intOf i).toNat)
    case atStart => exact ⟨0, by omega, Lib.hid (fun j h => by omega), Below.refl _ _, rfl⟩
    case round =>
      obtain ⟨k, hk, HE, hbel, rfl⟩ := hrel
      by_cases hlt : k < n
      · obtain ⟨b, off, rfl, hbl, hc1⟩ := row_get (hx.below hbel) (k := k) (by rw [HN.out]; exact hlt)
        obtain ⟨b', off', rfl, hbl', hc2⟩ := row_get (hy.below hbel) (k := k) (by rw [HN'.out]; exact hlt)
        have hx1 : x[k]? = some (x[k]'(by rw [HN.out]; exact hlt)) := List.getElem?_eq_getElem _
        have hy1 : y[k]? = some (y[k]'(by rw [HN'.out]; exact hlt)) := List.getElem?_eq_getElem _
        generalize x[k]'(by rw [HN.out]; exact hlt) = X at hc1 hx1
        generalize y[k]'(by rw [HN'.out]; exact hlt) = Y at hc2 hy1
        have HX := Lib.hid hx1; have HY := Lib.hid hy1; clear hx1 hy1
        by_cases hXY : X = Y
        · subst hXY
          have hb0 : (X != X) = false := by simp
          go_wp2
          go_quiet (fail)
          go_wp2
          go_roundw
          case rel => exact ⟨k + 1, by omega, Lib.hid (fun j hj => by
              rcases Nat.lt_or_ge j k with h | h
              · exact HE.out j h
              · obtain rfl : j = k := by omega
                rw [HX.out, HY.out]), hbel.trans ((drewN_below _ _).mono hbel.size), by go_num⟩
          case measure => simp [intOf]; omega
        · have hb0 : (X != Y) = true := by simpa using hXY
          have HF : Hid ((x == y) = false) := Lib.hid (by
            rw [beq_eq_false_iff_ne]; rintro rfl
            have h1 := HX.out; rw [HY.out] at h1; exact hXY (by simpa using h1.symm))
          clear hXY
          go_wp2
          go_quiet (fail)
          go_wp2
          go_ret
          exact ⟨by rw [HF.out]; rfl, hbel.trans ((drewN_below _ _).mono hbel.size)⟩
      · have HT : Hid ((x == y) = true) := Lib.hid (beq_at (by rw [HN.out, HN'.out]) (fun j hj => HE.out j (by rw [HN.out] at hj; omega)))
        go_wp2
        go_ret
        exact ⟨by rw [HT.out]; rfl, hbel⟩
  · have HF : Hid ((x == y) = false) := Lib.hid (by
      rw [beq_eq_false_iff_ne]; rintro rfl
      exact hne (by rw [← HN.out, ← HN'.out]))
    have hb0 : ((n : Int) != (n' : Int)) = true := by rw [bne_iff_ne]; omega
    go_enter Try.func25, Try.ntmps25
    go_wp2
    go_ret
    exact ⟨by rw [HF.out]; rfl, Below.refl _ _⟩
end Go.Proofs.Ytnngjbheamegjaa
