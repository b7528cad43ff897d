/- GasTells walked. -/
import Derived.Test.YthipnkbfdkmhaaaRf6
import Derived.Test.YthipnkbfdkmhaaaMeterF
import Derived.Test.YthipnkbfdkmhaaaTx4
import Derived.Deep.MidRow
import Derived.LoopTactic
import Derived.BigFrame
import Derived.WalkKit
import Derived.ProofKit
import Derived.Handy
import Derived.Below
import Derived.Lib.Hide
import Derived.IntWalk
import Derived.Outline
import Derived.WalkLawsBesides
import Derived.WalkSpells
namespace Go.Proofs.Ythipnkbfdkmhaaa
open Go.RowKit
attribute [local go_sem] strV
set_option linter.unusedVariables false
set_option maxRecDepth 100000 in
set_option maxHeartbeats 12800000 in
theorem walkGasTells (a : Option Addr) (n cap : Nat) (ms : List MsgV) (w : World) (hr : RowAt w a (ms.flatMap MsgV.cellsL)) (hn : ms.length = n) (hcap : n ≤ cap) (hcm : cap ≤ maxLen) (hok : ∀ m ∈ ms, m.ok w) :
    Calls Try.prog 8 #[.slice a n cap] w fun e w' => e = .returned (.bool true) ∧ Below w.heap.size w w' := by
  have HN := Lib.hid hn
  have CL := fun W (hb : Below w.heap.size w W) => lightMs_any a n cap ms W (hr.below hb) (fun m hm => (hok m hm).below hb) hn
  obtain ⟨kl, el⟩ : ∃ b, lightMs ms = b := ⟨_, rfl⟩
  simp only [el] at CL
  have HEL := Lib.hid el
  clear el hn
  have hbel := Below.refl w.heap.size w
  go_enter Try.func8, Try.ntmps8
  go_upto_region 3 with (go_at_call 33; refine (first17_any _).mono ?_; rintro e w2 ⟨rfl, hb⟩; have hbel := hbel.trans (hb.mono hbel.size); clear hb)
  cases kl
  · go_wp2_with (first | (go_at_call 33; refine (first17_any _).mono ?_; rintro e w2 ⟨rfl, hb⟩; have hbel := hbel.trans (hb.mono hbel.size); clear hb) | (go_at_call 27; refine (CL _ hbel).mono ?_; rintro e w2 ⟨rfl, hb⟩; have hbel := hbel.trans (hb.mono hbel.size); clear hb))
    go_ret
    exact ⟨by first | rfl | simp, hbel⟩
  have hlt := HEL.out
  unfold lightMs at hlt
  rw [Bool.and_eq_true, decide_eq_true_eq, HN.out] at hlt
  obtain ⟨h70, hla⟩ := hlt
  have hlm : ∀ m ∈ ms, lightM m = true := List.all_eq_true.1 hla
  have CT := fun W (hb : Below w.heap.size w W) => total_any a n cap ms W (hr.below hb) (fun m hm => (hok m hm).below hb) hlm HN.out h70
  have hsr := sumP_rng hlm
  obtain ⟨S, hS⟩ : ∃ S, sumP ms = S := ⟨_, rfl⟩
  simp only [hS] at CT
  have HS := Lib.hid hS
  have HLM := Lib.hid hlm
  clear hS hla hlm
  go_upto_region 7 with (first | (go_at_call 33; refine (first17_any _).mono ?_; rintro e w2 ⟨rfl, hb⟩; have hbel := hbel.trans (hb.mono hbel.size); clear hb) | (go_at_call 27; refine (CL _ hbel).mono ?_; rintro e w2 ⟨rfl, hb⟩; have hbel := hbel.trans (hb.mono hbel.size); clear hb))
  go_loopw [3, 4] (fun s i wr => ∃ (k : Nat) (t : Int), k ≤ n ∧ i = .int .i64 k ∧ s = .int .i64 t ∧ Hid (t = sumP (ms.take k)) ∧ (0 ≤ t ∧ t ≤ 40000 * (k : Int)) ∧ Below w.heap.size w wr) (fun _ i _ => n - (intOf i).toNat)
  case atStart => exact ⟨0, 0, Nat.zero_le _, rfl, rfl, Lib.hid (by simp [sumP]), by omega, hbel⟩
  case round =>
    clear hbel CL
    obtain ⟨k, t, hk, rfl, rfl, HT, ht, hbel⟩ := hrel
    by_cases hlt : k < n
    · have d1 : decide ((k : Int) < (n : Int)) = true := decide_eq_true (by omega)
      have d1n : decide (k < n) = true := decide_eq_true hlt
      have hkl : k < ms.length := by rw [HN.out]; exact hlt
      obtain ⟨b1, o1, rfl, hb1, hg1⟩ := msg_range (hr.below hbel) hkl
      have ok1 := (hok _ (List.getElem_mem hkl)).below hbel
      have hl1 := HLM.out _ (List.getElem_mem hkl)
      have hst := sumP_take hkl
      obtain ⟨m, hm9⟩ : ∃ m, ms[k] = m := ⟨_, rfl⟩
      rw [hm9] at hg1 ok1 hst hl1
      have hpr := price_rng hl1
      have CP := fun W (hb : Below wr.heap.size wr W) => price_light m W (ok1.below hb) hl1
      have CR := fun W (hb : Below wr.heap.size wr W) => refPrice_any m W (ok1.below hb) hl1
      have CM := fun W (hb : Below wr.heap.size wr W) => refMayMsg_any m W (ok1.below hb)
      have hpz : mayMsgB m = false → priceM m = 0 := fun h => by unfold priceM; rw [msgS_false h]; rfl
      have hpp : mayMsgB m = true → 1003 ≤ priceM m := fun h => by
        have := size_pos h
        unfold priceM
        rw [if_neg (by omega)]
        omega
      obtain ⟨p, hp⟩ : ∃ t, priceM m = t := ⟨_, rfl⟩
      have HST : Hid (t + p = sumP (ms.take (k + 1))) := Lib.hid (by rw [hst, hp, HT.out])
      simp only [hp] at CP CR
      rw [hp] at hpr hpz hpp
      obtain ⟨km, em⟩ : ∃ b, mayMsgB m = b := ⟨_, rfl⟩
      simp only [em] at CM
      rw [em] at hpz hpp
      clear hm9 hst hp em
      have n0 : (0 : Int) ≤ (k : Int) := by omega
      have n1' : (k : Int) < (n : Int) := by omega
      have n2' : ((k : Nat) : Int).toNat = k := by omega
      have n3 : t + p ≤ 40000 * 70 := by omega
      have n4 : 0 ≤ t + p := by omega
      have hbw := Below.refl wr.heap.size wr
      cases km
      · obtain rfl := hpz rfl
        clear hpz hpp
        go_wp2_with (first | (refine wpList_load_mid rfl 34 (.tmp 20) rfl b1 _ rfl m.row.toList _ hg1 Try.underlying34 rfl (msg_info _) ?_; rw [Array.toArray_toList]) | (refine wpList_load_mid rfl 34 (.tmp 26) rfl b1 _ rfl m.row.toList _ hg1 Try.underlying34 rfl (msg_info _) ?_; rw [Array.toArray_toList]) | (refine wpList_load_midG 34 (.tmp 35) rfl b1 _ rfl m.row.toList _ hg1 Try.underlying34 rfl (msg_info _) (by first | rfl | (simp [Region.wanted, yielded, *]; done)) ?_; rw [Array.toArray_toList]) | (go_at_call 34; refine (CP _ hbw).mono ?_; rintro e w2 ⟨rfl, hb⟩; have hbw := hbw.trans (hb.mono hbw.size); have hg1 : w2.rangeAt b1 (o1 + k * 50) m.row.toList := fun j v hv => (by rw [hb.cell (p := ⟨b1, o1 + k * 50 + j, none⟩) hb1] ; exact hg1 j v hv); have hb1 := Nat.lt_of_lt_of_le hb1 hb.size; clear hb) | (go_at_call 35; refine (CR _ hbw).mono ?_; rintro e w2 ⟨rfl, hb⟩; have hbw := hbw.trans (hb.mono hbw.size); have hg1 : w2.rangeAt b1 (o1 + k * 50) m.row.toList := fun j v hv => (by rw [hb.cell (p := ⟨b1, o1 + k * 50 + j, none⟩) hb1] ; exact hg1 j v hv); have hb1 := Nat.lt_of_lt_of_le hb1 hb.size; clear hb) | (go_at_call 22; refine (CM _ hbw).mono ?_; rintro e w2 ⟨rfl, hb⟩; have hbw := hbw.trans (hb.mono hbw.size); have hg1 : w2.rangeAt b1 (o1 + k * 50) m.row.toList := fun j v hv => (by rw [hb.cell (p := ⟨b1, o1 + k * 50 + j, none⟩) hb1] ; exact hg1 j v hv); have hb1 := Nat.lt_of_lt_of_le hb1 hb.size; clear hb))
        go_roundw
        case rel => exact ⟨k + 1, t, by omega, by go_num, by first | rfl | go_num, Lib.hid (by rw [← HST.out]; omega), by omega, hbel.trans (hbw.mono hbel.size)⟩
        case measure => (simp [intOf]) <;> omega
      · have h3 := hpp rfl
        have f1 : decide (0 < p) = true := decide_eq_true (by omega)
        have f2 : decide (p < 1003) = false := decide_eq_false (by omega)
        clear hpz hpp
        go_wp2_with (first | (refine wpList_load_mid rfl 34 (.tmp 20) rfl b1 _ rfl m.row.toList _ hg1 Try.underlying34 rfl (msg_info _) ?_; rw [Array.toArray_toList]) | (refine wpList_load_mid rfl 34 (.tmp 26) rfl b1 _ rfl m.row.toList _ hg1 Try.underlying34 rfl (msg_info _) ?_; rw [Array.toArray_toList]) | (refine wpList_load_midG 34 (.tmp 35) rfl b1 _ rfl m.row.toList _ hg1 Try.underlying34 rfl (msg_info _) (by first | rfl | (simp [Region.wanted, yielded, *]; done)) ?_; rw [Array.toArray_toList]) | (go_at_call 34; refine (CP _ hbw).mono ?_; rintro e w2 ⟨rfl, hb⟩; have hbw := hbw.trans (hb.mono hbw.size); have hg1 : w2.rangeAt b1 (o1 + k * 50) m.row.toList := fun j v hv => (by rw [hb.cell (p := ⟨b1, o1 + k * 50 + j, none⟩) hb1] ; exact hg1 j v hv); have hb1 := Nat.lt_of_lt_of_le hb1 hb.size; clear hb) | (go_at_call 35; refine (CR _ hbw).mono ?_; rintro e w2 ⟨rfl, hb⟩; have hbw := hbw.trans (hb.mono hbw.size); have hg1 : w2.rangeAt b1 (o1 + k * 50) m.row.toList := fun j v hv => (by rw [hb.cell (p := ⟨b1, o1 + k * 50 + j, none⟩) hb1] ; exact hg1 j v hv); have hb1 := Nat.lt_of_lt_of_le hb1 hb.size; clear hb) | (go_at_call 22; refine (CM _ hbw).mono ?_; rintro e w2 ⟨rfl, hb⟩; have hbw := hbw.trans (hb.mono hbw.size); have hg1 : w2.rangeAt b1 (o1 + k * 50) m.row.toList := fun j v hv => (by rw [hb.cell (p := ⟨b1, o1 + k * 50 + j, none⟩) hb1] ; exact hg1 j v hv); have hb1 := Nat.lt_of_lt_of_le hb1 hb.size; clear hb))
        go_roundw
        case rel => exact ⟨k + 1, t + p, by omega, by go_num, by first | rfl | go_num, HST, by omega, hbel.trans (hbw.mono hbel.size)⟩
        case measure => (simp [intOf]) <;> omega
    · have d9 : decide ((k : Int) < (n : Int)) = false := decide_eq_false (by omega)
      have d9n : decide (k < n) = false := decide_eq_false hlt
      have hT := HT.out
      rw [List.take_of_length_le (by rw [HN.out]; omega), HS.out] at hT
      subst hT
      go_wp2_with (go_at_call 36; refine (CT _ hbel).mono ?_; rintro e w3 ⟨rfl, hb⟩; have hbel := hbel.trans (hb.mono hbel.size); clear hb)
      go_ret
      exact ⟨by first | rfl | simp, hbel⟩
end Go.Proofs.Ythipnkbfdkmhaaa
