/- ligkeep.Ints; the chapter's example of cuts. -/
import Derived.Test.YthipnkbfdkmhaaaBt2
import Derived.BigRegion
import Derived.RegionTactic
import Derived.BigQuiet
import Derived.Deep.QuietTactic
import Derived.Deep.MidRow
import Derived.LoopTactic
import Derived.BigFrame
import Derived.WalkKit
import Derived.ProofKit
import Derived.Handy
import Derived.Below
import Derived.Lib.Hide
import Derived.IntWalk
import Derived.Outline
import Derived.WalkLawsBesides
import Derived.WalkSpells
namespace Go.Proofs.Ythipnkbfdkmhaaa
open Go.RowKit
attribute [local go_sem] strV
set_option linter.unusedVariables false
theorem row_get {w : World} {a : Option Addr} {zs : List Int} (h : RowAt w a (zs.map (Value.int .i64))) {k : Nat} (hk : k < zs.length) :
    ∃ b off, a = some ⟨b, off, none⟩ ∧ b < w.heap.size ∧ w.cell? ⟨b, off + k, none⟩ = some (.int .i64 zs[k]) := by
  rcases h with h | ⟨b, off, ha, hlt, hc⟩
  · have := congrArg List.length h; rw [List.length_map] at this; simp only [List.length_nil] at this; omega
  · refine ⟨b, off, ha, hlt, ?_⟩
    rw [hc k (by simpa using hk)]; simp [hk]

theorem beq_at {x y : List Int} (hl : x.length = y.length) (h : ∀ j, j < x.length → x[j]? = y[j]?) : (x == y) = true := by
  rw [beq_iff_eq]
  refine List.ext_getElem? fun j => ?_
  rcases Nat.lt_or_ge j x.length with h' | h'
  · exact h j h'
  · rw [List.getElem?_eq_none h', List.getElem?_eq_none (by omega)]
/- ligkeep.Ints: are the two lists one? -/
set_option maxRecDepth 100000 in
set_option maxHeartbeats 800000 in
theorem ints_any {a a' : Option Addr} {n n' cap cap' : Nat} {x y : List Int} {w : World} (hx : RowAt w a (x.map (Value.int .i64))) (hy : RowAt w a' (y.map (Value.int .i64))) (hn : x.length = n) (hn' : y.length = n') (hm : n ≤ maxLen) (hm' : n' ≤ maxLen) :
    Calls Try.prog 42 #[.slice a n cap, .slice a' n' cap'] w fun e w' => e = .returned (.bool (x == y)) ∧ Below w.heap.size w w' := by
  unfold maxLen at hm hm'
  have HN := Lib.hid hn; have HN' := Lib.hid hn'; clear hn hn'
  by_cases hne : n = n'
  · subst hne
    go_enter Try.func42, Try.ntmps42
    go_wp2
    go_loopw [5] (fun i wr => ∃ k : Nat, k ≤ n ∧ Hid (∀ j, j < k → x[j]? = y[j]?) ∧ Below w.heap.size w wr ∧ i = .int .i64 k) (fun i _ => n - (intOf i).toNat)
    case atStart => exact ⟨0, by omega, Lib.hid (fun j h => by omega), Below.refl _ _, rfl⟩
    case round =>
      obtain ⟨k, hk, HE, hbel, rfl⟩ := hrel
      by_cases hlt : k < n
      · obtain ⟨b, off, rfl, hbl, hc1⟩ := row_get (hx.below hbel) (k := k) (by rw [HN.out]; exact hlt)
        obtain ⟨b', off', rfl, hbl', hc2⟩ := row_get (hy.below hbel) (k := k) (by rw [HN'.out]; exact hlt)
        have hx1 : x[k]? = some (x[k]'(by rw [HN.out]; exact hlt)) := List.getElem?_eq_getElem _
        have hy1 : y[k]? = some (y[k]'(by rw [HN'.out]; exact hlt)) := List.getElem?_eq_getElem _
        generalize x[k]'(by rw [HN.out]; exact hlt) = X at hc1 hx1
        generalize y[k]'(by rw [HN'.out]; exact hlt) = Y at hc2 hy1
        have HX := Lib.hid hx1; have HY := Lib.hid hy1; clear hx1 hy1
        by_cases hXY : X = Y
        · subst hXY
          have hb0 : (X != X) = false := by simp
          go_wp2
          go_quiet (fail)
          go_wp2
          go_roundw
          case rel => exact ⟨k + 1, by omega, Lib.hid (fun j hj => by
              rcases Nat.lt_or_ge j k with h | h
              · exact HE.out j h
              · obtain rfl : j = k := by omega
                rw [HX.out, HY.out]), hbel.trans ((drewN_below _ _).mono hbel.size), by go_num⟩
          case measure => simp [intOf]; omega
        · have hb0 : (X != Y) = true := by simpa using hXY
          have HF : Hid ((x == y) = false) := Lib.hid (by
            rw [beq_eq_false_iff_ne]; rintro rfl
            have h1 := HX.out; rw [HY.out] at h1; exact hXY (by simpa using h1.symm))
          clear hXY
          go_wp2
          go_quiet (fail)
          go_wp2
          go_ret
          exact ⟨by rw [HF.out]; rfl, hbel.trans ((drewN_below _ _).mono hbel.size)⟩
      · have HT : Hid ((x == y) = true) := Lib.hid (beq_at (by rw [HN.out, HN'.out]) (fun j hj => HE.out j (by rw [HN.out] at hj; omega)))
        go_wp2
        go_ret
        exact ⟨by rw [HT.out]; rfl, hbel⟩
  · have HF : Hid ((x == y) = false) := Lib.hid (by
      rw [beq_eq_false_iff_ne]; rintro rfl
      exact hne (by rw [← HN.out, ← HN'.out]))
    have hb0 : ((n : Int) != (n' : Int)) = true := by rw [bne_iff_ne]; omega
    go_enter Try.func42, Try.ntmps42
    go_wp2
    go_ret
    exact ⟨by rw [HF.out]; rfl, Below.refl _ _⟩
def updM (h : Int) : MsgV := { MsgV.zero 1 with hh := h }
theorem updM_ok (h : Int) (w : World) : (updM h).ok w := ⟨LvsAt.nil _ _, rfl, Nat.le_refl _, Nat.zero_le _, LvsAt.nil _ _, rfl, Nat.le_refl _, Nat.zero_le _, Nat.zero_le _, Nat.zero_le _⟩
def hdA (h : Int) : Value := .agg #[.int .i64 h, .int .i64 0, .int .u8 0, .int .u8 0, .int .u8 0, .int .u8 0, .int .u8 0, .int .u8 0, .int .u8 0, .int .u8 0, .int .u8 0, .int .u8 0, .int .u8 0, .int .u8 0, .int .u8 0, .int .u8 0, .int .u8 0, .int .u8 0, .int .u8 0, .int .u8 0, .int .u8 0, .int .u8 0, .int .u8 0, .int .u8 0, .int .u8 0, .int .u8 0, .int .u8 0, .int .u8 0, .int .u8 0, .int .u8 0, .int .u8 0, .int .u8 0, .int .u8 0, .int .u8 0]
theorem build_hd (h : Int) (W : World) : (Instr.build 25 #[(0, .int .i64 h)]).run Try.prog W = .ok (hdA h) W := by kernel_rfl
theorem build_upd (h : Int) (W : World) : (Instr.build 34 #[(0, .int .i64 1), (1, hdA h)]).run Try.prog W = .ok (.agg (updM h).row) W := by kernel_rfl
theorem wpList_build2 {P : Program} {ops : Array Oper} {rest : List Oper} {op : Oper} {a : Act} {w : World} {Q : Exit → Act → World → Prop} (hgd : op.guard = none) (t : TypeId) (i j : Nat) (x y : Operand) (ho : op.op = .build t #[(i, x), (j, y)]) {u z v : Value} (hx : a.eval x = u) (hy : a.eval y = z)
    (hrun : (Instr.build t #[(i, u), (j, z)]).run P w = .ok v w) (h : wpList P ops Q rest (a.put op.dst v) w) : wpList P ops Q (op :: rest) a w :=
  wpList_plain hgd fun _ hK => by
    subst hx hy
    unfold Oper.wp
    simp [execOp, ho, hrun, Result.andThen]
    exact hK _ _ h
theorem wpList_three {P : Program} {ops : Array Oper} {rest : List Oper} {op : Oper} {a : Act} {w : World} {Q : Exit → Act → World → Prop} {u : Value} {R : Array Value} (hgd : op.guard = none) (x y z : Operand) (t e : TypeId) (ho : op.op = .buildSlice t 3 #[(0, x), (1, y), (2, z)]) (hx : a.eval x = u) (hy : a.eval y = u) (hz : a.eval z = u)
    (hrun : (Instr.buildSlice t 3 #[(0, u), (1, u), (2, u)]).run P w = .ok (.slice (some ⟨w.heap.size, 0, none⟩) 3 3) (w.alloc (.cells R e)))
    (h : wpList P ops Q rest (a.put op.dst (.slice (some ⟨w.heap.size, 0, none⟩) 3 3)) (w.alloc (.cells R e))) : wpList P ops Q (op :: rest) a w :=
  wpList_plain hgd fun _ hK => by
    unfold Oper.wp
    simp [execOp, ho, hx, hy, hz, hrun, Result.andThen]
    exact hK _ _ h
theorem build3u (W : World) : (Instr.buildSlice 48 3 #[(0, .agg (updM 2).row), (1, .agg (updM 2).row), (2, .agg (updM 2).row)]).run Try.prog W = .ok (.slice (some ⟨W.heap.size, 0, none⟩) 3 3) (W.alloc (.cells ((updM 2).row ++ (updM 2).row ++ (updM 2).row) 34)) := by kernel_rfl
theorem light_upd : lightM (updM 1) = true ∧ lightM (updM 2) = true := by decide +kernel
theorem cut_first : cutF (1048576, 1048576, 2) [updM 1] [updM 2, updM 2, updM 2] [] = ([[0], [1, 2]], []) := by decide +kernel
end Go.Proofs.Ythipnkbfdkmhaaa
