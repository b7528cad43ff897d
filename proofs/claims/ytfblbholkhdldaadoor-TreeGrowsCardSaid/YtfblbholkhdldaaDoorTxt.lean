/- Lists of texts: whether they are light, whether two are the same. -/
import Derived.Test.YtfblbholkhdldaaDoorSha6
import Derived.WalkKit
import Derived.ProofKit
import Derived.Handy
import Derived.Below
import Derived.Lib.Hide
import Derived.IntWalk
import Derived.Outline
import Derived.WalkLawsBesides
import Derived.WalkSpells
namespace Go.Proofs.YtfblbholkhdldaaDoor
open Go.RowKit
attribute [local go_sem] strV
set_option linter.unusedVariables false
def ltB (ss : List ByteArray) (many long : Nat) : Bool := decide (ss.length ≤ many) && ss.all (fun s => decide (s.size ≤ long)) && decide ((flat ss).length ≤ long)
/-- The cell of text k. -/
theorem str_cell {w wr : World} {a : Option Addr} {ss : List ByteArray} (hr : RowAt w a (ss.flatMap sval)) (hb : Below w.heap.size w wr) {k : Nat} (hk : k < ss.length) :
    ∃ b off, a = some ⟨b, off, none⟩ ∧ wr.cell? ⟨b, off + k, none⟩ = some (.string ss[k]) := by
  obtain ⟨b, off, ha, hlt, hc⟩ := hr.elem (f := sval) (c := 1) (fun _ => rfl) hk (by decide)
  refine ⟨b, off, ha, ?_⟩
  rw [hb.cell (p := ⟨b, off + k, none⟩) hlt, show off + k = off + (k * 1 + 0) by omega, hc 0 (by decide)]
  rfl
set_option maxRecDepth 100000 in
set_option maxHeartbeats 3200000 in
theorem lightTexts_any (a : Option Addr) (n cap : Nat) (ss : List ByteArray) (many long : Nat) (w : World) (hr : RowAt w a (ss.flatMap sval)) (hn : ss.length = n) (hm : many ≤ 1000) (hl : long ≤ 100000) (hnm : n ≤ maxLen) :
    Calls Tryd.prog 16 #[.slice a n cap, .int .i64 many, .int .i64 long] w fun e w' => e = .returned (.bool (ltB ss many long)) ∧ Below w.heap.size w w' := by
  have HN := Lib.hid hn
  unfold maxLen at hnm
  by_cases c0 : many < n
  · have d0 : decide ((many : Int) < (n : Int)) = true := decide_eq_true (by omega)
    have hF : ltB ss many long = false := by unfold ltB; rw [decide_eq_false (by omega)]; rfl
    rw [hF]
    go_enter Tryd.func16, Tryd.ntmps16
    go_wp2
    go_ret
    exact ⟨rfl, Below.refl _ _⟩
  have d0 : decide ((many : Int) < (n : Int)) = false := decide_eq_false (by omega)
  go_enter Tryd.func16, Tryd.ntmps16
  go_upto_region 5 with fail
  go_loopw [7, 8] (fun t i wr => ∃ k : Nat, k ≤ n ∧ Below w.heap.size w wr ∧ Hid ((ss.take k).all (fun s => decide (s.size ≤ long)) = true) ∧ (flat (ss.take k)).length ≤ k * 100000 ∧ t = .int .i64 ((flat (ss.take k)).length : Nat) ∧ i = .int .i64 k) (fun _ i _ => n - (intOf i).toNat)
  case atStart => exact ⟨0, Nat.zero_le _, Below.refl _ _, Lib.hid rfl, by simp [flat], rfl, rfl⟩
  case round =>
    obtain ⟨k, hk, hbel, HA, hfl, rfl, rfl⟩ := hrel
    obtain ⟨fl, hfk⟩ : ∃ x, (flat (ss.take k)).length = x := ⟨_, rfl⟩
    rw [hfk] at hfl
    by_cases hlt : k < n
    · have d1 : decide ((k : Int) < (n : Int)) = true := decide_eq_true (by omega)
      have hks : k < ss.length := by have := HN.out; omega
      obtain ⟨b0, off, ha, hc⟩ := str_cell hr hbel hks
      subst ha
      obtain ⟨s, hs⟩ : ∃ s, ss[k] = s := ⟨_, rfl⟩
      have hft := flat_take hks
      have hta : ss.take (k + 1) = ss.take k ++ [ss[k]] := by rw [List.take_add_one, List.getElem?_eq_getElem hks]; rfl
      rw [hs] at hc hft hta
      have n0 : (0 : Int) ≤ (k : Int) := by omega
      have n1 : (k : Int) < (n : Int) := by omega
      have n2 : ((k : Nat) : Int).toNat = k := by omega
      by_cases hbig : long < s.size
      · have d2 : decide ((long : Int) < (s.size : Int)) = true := decide_eq_true (by omega)
        have hF : ltB ss many long = false := by
          unfold ltB
          have : ss.all (fun s => decide (s.size ≤ long)) = false := by
            rw [List.all_eq_false]
            exact ⟨s, by rw [← hs]; exact List.getElem_mem _, by simp; omega⟩
          rw [this]; simp
        simp only [hfk]
        go_wp2
        go_ret
        exact ⟨by rw [hF]; rfl, hbel⟩
      · have d2 : decide ((long : Int) < (s.size : Int)) = false := decide_eq_false (by omega)
        have e1 : IntKind.i64.wrap ((fl : Int) + (s.size : Int)) = (fl : Int) + (s.size : Int) := IntWalk.i64_in _ (by omega)
        simp only [hfk]
        go_wp2
        go_roundw
        case rel => exact ⟨k + 1, by omega, hbel, Lib.hid (by rw [hta, List.all_append, HA.out]; simp; omega), by rw [hft, List.length_append, hfk, str_len]; omega, by rw [hft, List.length_append, hfk, str_len, Int.natCast_add], by go_num⟩
        case measure => (simp [intOf]) <;> omega
    · obtain rfl : k = n := by omega
      have d1 : decide ((k : Int) < (k : Int)) = false := decide_eq_false (by omega)
      have htk : ss.take k = ss := List.take_of_length_le (by have := HN.out; omega)
      rw [htk] at hfk HA
      have hB : ltB ss many long = decide (fl ≤ long) := by
        unfold ltB
        rw [HA.out, hfk, decide_eq_true (by have := HN.out; omega)]
        simp
      rw [htk]
      simp only [hfk]
      go_wp2
      go_ret
      exact ⟨by rw [hB]; rfl, hbel⟩
set_option maxRecDepth 100000 in
set_option maxHeartbeats 3200000 in
theorem texts_same (a b : Option Addr) (n ca cb : Nat) (ss : List ByteArray) (w : World) (ha : RowAt w a (ss.flatMap sval)) (hb : RowAt w b (ss.flatMap sval)) (hn : ss.length = n) (hnm : n ≤ maxLen) :
    Calls Tryd.prog 55 #[.slice a n ca, .slice b n cb] w fun e w' => e = .returned (.bool true) ∧ Below w.heap.size w w' := by
  have HN := Lib.hid hn
  unfold maxLen at hnm
  go_enter Tryd.func55, Tryd.ntmps55
  go_upto_region 4 with fail
  go_loopw [5] (fun i wr => ∃ k : Nat, k ≤ n ∧ Below w.heap.size w wr ∧ i = .int .i64 k) (fun i _ => n - (intOf i).toNat)
  case atStart => exact ⟨0, Nat.zero_le _, Below.refl _ _, rfl⟩
  case round =>
    obtain ⟨k, hk, hbel, rfl⟩ := hrel
    by_cases hlt : k < n
    · have d1 : decide ((k : Int) < (n : Int)) = true := decide_eq_true (by omega)
      have hks : k < ss.length := by have := HN.out; omega
      obtain ⟨b0, off, h0, hc⟩ := str_cell ha hbel hks
      obtain ⟨b1, off1, h1, hc1⟩ := str_cell hb hbel hks
      subst h0 h1
      obtain ⟨s, hs⟩ : ∃ s, ss[k] = s := ⟨_, rfl⟩
      rw [hs] at hc hc1
      have n0 : (0 : Int) ≤ (k : Int) := by omega
      have n1 : (k : Int) < (n : Int) := by omega
      have n2 : ((k : Nat) : Int).toNat = k := by omega
      have dk : (s.toList == s.toList) = true := by simp
      go_upto_region 6 with fail
      go_quiet (fail)
      go_wp2
      go_roundw
      case rel => exact ⟨k + 1, by omega, hbel.trans ((drewN_below _ _).mono hbel.size), by go_num⟩
      case measure => (simp [intOf]) <;> omega
    · obtain rfl : k = n := by omega
      have d1 : decide ((k : Int) < (k : Int)) = false := decide_eq_false (by omega)
      go_wp2
      go_ret
      exact ⟨rfl, hbel⟩
end Go.Proofs.YtfblbholkhdldaaDoor
