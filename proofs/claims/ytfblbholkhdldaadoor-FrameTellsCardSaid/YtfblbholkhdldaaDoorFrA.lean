/- Records of any bytes: how far they go. -/
import Derived.Test.YtfblbholkhdldaaDoorFrAll
import Derived.WalkKit
import Derived.ProofKit
import Derived.Handy
import Derived.Below
import Derived.Lib.Hide
import Derived.IntWalk
import Derived.Outline
import Derived.WalkLawsBesides
import Derived.WalkSpells
namespace Go.Proofs.YtfblbholkhdldaaDoor
open Go.RowKit
attribute [local go_sem] strV
set_option linter.unusedVariables false
/-- What All answers, from a place on. -/
def allFr (S : ByteArray) : Nat → Nat → List ByteArray × Nat × Int
  | 0, p => ([], p, 0)
  | f + 1, p => if p < S.size then (if (nextFr S (p : Nat)).2.2 = 0 then ((nextFr S (p : Nat)).1 :: (allFr S f (nextFr S (p : Nat)).2.1.toNat).1, (allFr S f (nextFr S (p : Nat)).2.1.toNat).2) else ([], p, (nextFr S (p : Nat)).2.2)) else ([], p, 0)
theorem allFr_end {S : ByteArray} {f p : Nat} (h : ¬ p < S.size) : allFr S (f + 1) p = ([], p, 0) := by
  unfold allFr; rw [if_neg h]
theorem allFr_bad {S b : ByteArray} {f p : Nat} {n e : Int} (h : p < S.size) (hn : nextFr S (p : Nat) = (b, n, e)) (he : e ≠ 0) : allFr S (f + 1) p = ([], p, e) := by
  unfold allFr; rw [if_pos h, hn]; simp only [if_neg he]
theorem allFr_good {S b : ByteArray} {f p : Nat} {n : Nat} (h : p < S.size) (hn : nextFr S (p : Nat) = (b, (n : Int), 0)) : allFr S (f + 1) p = (b :: (allFr S f n).1, (allFr S f n).2) := by
  conv => lhs; unfold allFr
  rw [if_pos h, hn]; simp only [if_pos, Int.toNat_natCast]
theorem nextFr_ok {S b : ByteArray} {p : Nat} {n : Int} (h : nextFr S (p : Nat) = (b, n, 0)) : ∃ m : Nat, n = m ∧ p + 8 ≤ m ∧ m ≤ S.size := by
  unfold nextFr at h
  split at h
  · simp at h
  · rename_i hp
    rw [Int.toNat_natCast] at h
    simp only at h
    have hL : (S.extract p S.size).size = S.size - p := by simp
    obtain ⟨L, hLe⟩ : ∃ L, S.extract p S.size = L := ⟨_, rfl⟩
    rw [hLe] at h hL
    obtain ⟨v, hv⟩ : ∃ v, val4 L = v := ⟨_, rfl⟩
    rw [hv] at h
    split at h
    · simp at h
    split at h
    · simp at h
    split at h
    · simp at h
    split at h
    · simp only [Prod.mk.injEq] at h
      exact ⟨p + 8 + v, by omega, by omega, by omega⟩
    · simp at h
set_option maxRecDepth 100000 in
set_option maxHeartbeats 6400000 in
theorem fall_any (S : ByteArray) (w : World) (hW : SW w) (hs : S.size ≤ 1000000) :
    Calls Tryd.prog 53 #[.string S] w fun e w' => ∃ a cap, e = .returned (.tuple #[.slice a (allFr S (S.size + 1) 0).1.length cap, .int .i64 ((allFr S (S.size + 1) 0).2.1 : Nat), .int .i64 (allFr S (S.size + 1) 0).2.2]) ∧ RowAt w' a ((allFr S (S.size + 1) 0).1.flatMap sval) ∧ Below w.heap.size w w' := by
  obtain ⟨⟨ZL, ZP, ZE⟩, hZ⟩ : ∃ t, allFr S (S.size + 1) 0 = t := ⟨_, rfl⟩
  simp only [hZ]
  have HZ0 := Lib.hid hZ
  obtain ⟨i0, hi, hz0, hz1, hz2⟩ := info_parts info_str
  clear hZ
  go_enter Tryd.func53, Tryd.ntmps53
  go_upto_region 3 with fail
  go_loopw [5, 6] (fun v i wr => ∃ (bs : List ByteArray) (k f p : Nat), bs.length = k ∧ k ≤ p ∧ p ≤ S.size ∧ S.size - p < f ∧ Hid ((ZL, ZP, ZE) = (bs ++ (allFr S f p).1, (allFr S f p).2)) ∧ wr.ownsRow w.heap.size 9 1 v k (bs.map Value.string) ∧ Below w.heap.size w wr ∧ i = .int .i64 (p : Nat)) (fun _ i _ => S.size - (intOf i).toNat)
  case atStart => exact ⟨[], 0, S.size + 1, 0, rfl, Nat.zero_le _, Nat.zero_le _, by omega, Lib.hid (by rw [HZ0.out]; rfl), ⟨rfl, .inl ⟨rfl, rfl⟩⟩, Below.refl _ _, rfl⟩
  case round =>
    obtain ⟨bs, k, f, p, hbk, hkp, hpS, hf, HZ, hown, hbel, rfl⟩ := hrel
    obtain ⟨f, rfl⟩ : ∃ g, f = g + 1 := ⟨f - 1, by omega⟩
    have hW1 := hW.below hbel
    have hsize := hbel.size
    by_cases hlt : p < S.size
    · have d0 : p < S.size := hlt
      have d1 : decide ((p : Int) < (S.size : Int)) = true := decide_eq_true (by omega)
      have CN := fnext_any S (p : Int) wr hW1 hs
      obtain ⟨⟨b, n, e⟩, hnx⟩ : ∃ t, nextFr S (p : Nat) = t := ⟨_, rfl⟩
      rw [hnx] at CN
      by_cases he : e = 0
      · subst he
        obtain ⟨m, rfl, hm1, hm2⟩ := nextFr_ok hnx
        have hz := HZ.out
        rw [allFr_good hlt hnx] at hz
        have HZ := Lib.hid hz
        have hbk2 : (bs ++ [b]).length = k + 1 := by simp [hbk]
        have HB := Lib.hid hbk
        clear hz hnx hbk
        go_upto_region 7 with (go_at_call 49; refine CN.mono ?_; rintro e w1 ⟨rfl, hb1⟩)
        have hbel1 := hbel.trans (hb1.mono hbel.size)
        have hown1 := strs_below hown hb1
        have hsz1 : w.heap.size ≤ w1.heap.size := hbel1.size
        go_wp2_with (at_builtin; refine wpList_push rfl (.tmp 26) (.tmp 28) 22 rfl 9 i0 (.string ⟨#[]⟩) 16 Tryd.underlying22 hi hz0 hz1 hz2 rfl hown1 rfl _ rfl rfl (by unfold maxLen; omega) (by omega) hsz1 ?_)
        intro v' w' hown2 hbel2
        go_wp2
        go_roundw
        case rel => exact ⟨bs ++ [b], k + 1, f, m, hbk2, by omega, hm2, by omega, Lib.hid (by rw [HZ.out]; simp), by rw [List.map_append]; exact hown2, hbel1.trans hbel2, rfl⟩
        case measure => (simp [intOf]) <;> omega
      · have e1 : (e == 0) = false := beq_eq_false_iff_ne.2 he
        have hz := HZ.out
        rw [allFr_bad hlt hnx he] at hz
        simp only [Prod.mk.injEq, List.append_nil] at hz
        obtain ⟨hz1', hz2', hz3'⟩ := hz
        subst hz1' hz2' hz3'
        clear hnx
        obtain ⟨a, cap, hv, hrow, _⟩ := RowAt.own hown
        subst hv
        have hrow2 : RowAt wr a (ZL.flatMap sval) := by rw [strs_flat]; exact hrow
        have HB := Lib.hid hbk
        clear hbk
        go_wp2_with (go_at_call 49; refine CN.mono ?_; rintro e w1 ⟨rfl, hb1⟩)
        go_returns
        exact ⟨_, _, by rw [HB.out]; rfl, hrow2.below hb1, hbel.trans (hb1.mono hbel.size)⟩
    · have d1 : decide ((p : Int) < (S.size : Int)) = false := decide_eq_false (by omega)
      have hz := HZ.out
      rw [allFr_end hlt] at hz
      simp only [Prod.mk.injEq, List.append_nil] at hz
      obtain ⟨hz1', hz2', hz3'⟩ := hz
      subst hz1' hz2' hz3'
      obtain ⟨a, cap, hv, hrow, _⟩ := RowAt.own hown
      subst hv
      have hrow2 : RowAt wr a (ZL.flatMap sval) := by rw [strs_flat]; exact hrow
      have HB := Lib.hid hbk
      clear hbk
      go_wp2
      go_returns
      exact ⟨_, _, by rw [HB.out]; rfl, hrow2, hbel⟩
end Go.Proofs.YtfblbholkhdldaaDoor
