/- TxBack walked. -/
import Derived.Test.YthipnkbfdkmhaaaTx4
import Derived.Test.YthipnkbfdkmhaaaTx2
import Derived.Test.YthipnkbfdkmhaaaMsg13
import Derived.Deep.MidRow
import Derived.LoopTactic
import Derived.BigFrame
import Derived.WalkKit
import Derived.ProofKit
import Derived.Handy
import Derived.Below
import Derived.Lib.Hide
import Derived.IntWalk
import Derived.Outline
import Derived.WalkLawsBesides
import Derived.WalkSpells
namespace Go.Proofs.Ythipnkbfdkmhaaa
open Go.RowKit
attribute [local go_sem] strV
set_option linter.unusedVariables false
theorem encTx_cases (ms : List MsgV) : ((decide (ms.length ≤ 64) && ms.all mayMsgB) = true ∧ encTx ms = (⟨(txBy ms).toArray⟩, 0)) ∨ ((decide (ms.length ≤ 64) && ms.all mayMsgB) = false ∧ ∃ e, e ≠ 0 ∧ encTx ms = (⟨#[]⟩, e)) := by
  unfold encTx
  by_cases h : 64 < ms.length
  · rw [if_pos h]
    exact .inr ⟨by rw [decide_eq_false (by omega)]; rfl, 22, by decide, rfl⟩
  · rw [if_neg h, decide_eq_true (by omega)]
    cases ha : ms.all mayMsgB
    · exact .inr ⟨rfl, 1, by decide, rfl⟩
    · exact .inl ⟨rfl, rfl⟩
set_option maxRecDepth 100000 in
set_option maxHeartbeats 12800000 in
theorem walkTxBack (a : Option Addr) (n cap : Nat) (ms : List MsgV) (s : ByteArray) (w : World) (hr : RowAt w a (ms.flatMap MsgV.cellsL)) (hn : ms.length = n) (hcap : n ≤ cap) (hcm : cap ≤ maxLen) (hok : ∀ m ∈ ms, m.ok w) (hs : s.size ≤ maxLen) :
    Calls Try.prog 7 #[.slice a n cap, .string s] w fun e w' => e = .returned (.bool true) ∧ Below w.heap.size w w' := by
  have HN := Lib.hid hn
  have CL := fun W (hb : Below w.heap.size w W) => lightMs_any a n cap ms W (hr.below hb) (fun m hm => (hok m hm).below hb) hn
  have CT := fun W (hb : Below w.heap.size w W) => msgTx_any a n cap ms W (hr.below hb) (fun m hm => (hok m hm).below hb) hn
  obtain ⟨kl, el⟩ : ∃ b, lightMs ms = b := ⟨_, rfl⟩
  simp only [el] at CL
  have HEL := Lib.hid el
  clear el hn
  have hbel := Below.refl w.heap.size w
  go_enter Try.func7, Try.ntmps7
  go_upto_region 3 with (go_at_call 14; refine (first8_any _).mono ?_; rintro e w2 ⟨rfl, hb⟩; have hbel := hbel.trans (hb.mono hbel.size); clear hb)
  cases kl
  · go_wp2_with (first | (go_at_call 14; refine (first8_any _).mono ?_; rintro e w2 ⟨rfl, hb⟩; have hbel := hbel.trans (hb.mono hbel.size); clear hb) | (go_at_call 27; refine (CL _ hbel).mono ?_; rintro e w2 ⟨rfl, hb⟩; have hbel := hbel.trans (hb.mono hbel.size); clear hb))
    go_ret
    exact ⟨by first | rfl | simp, hbel⟩
  have h70 : n ≤ 70 := by
    have := HEL.out
    unfold lightMs at this
    rw [Bool.and_eq_true, decide_eq_true_eq, HN.out] at this
    exact this.1
  by_cases c2 : 8000 < s.size
  · have d2 : decide (8000 < (s.size : Int)) = true := decide_eq_true (by omega)
    go_wp2_with (first | (go_at_call 14; refine (first8_any _).mono ?_; rintro e w2 ⟨rfl, hb⟩; have hbel := hbel.trans (hb.mono hbel.size); clear hb) | (go_at_call 27; refine (CL _ hbel).mono ?_; rintro e w2 ⟨rfl, hb⟩; have hbel := hbel.trans (hb.mono hbel.size); clear hb))
    go_ret
    exact ⟨by first | rfl | simp, hbel⟩
  have d2 : decide (8000 < (s.size : Int)) = false := decide_eq_false (by omega)
  have CU := fun W => msgUntx_any s W (by omega)
  have HC := Lib.hid (encTx_cases ms)
  obtain ⟨⟨B, E⟩, hX⟩ : ∃ x, encTx ms = x := ⟨_, rfl⟩
  have HX := Lib.hid hX
  simp only [hX] at CT
  clear hX
  obtain ⟨le, hle⟩ : ∃ b, decide (ms.length ≤ 64) = b := ⟨_, rfl⟩
  have hle2 : decide ((n : Int) ≤ 64) = le := by rw [← hle, HN.out]; by_cases h : n ≤ 64 <;> simp [h] <;> omega
  have hle3 : decide (n ≤ 64) = le := by rw [← hle, HN.out]
  have HLE := Lib.hid hle
  clear hle
  go_upto_region 8 with (first | (go_at_call 14; refine (first8_any _).mono ?_; rintro e w2 ⟨rfl, hb⟩; have hbel := hbel.trans (hb.mono hbel.size); clear hb) | (go_at_call 27; refine (CL _ hbel).mono ?_; rintro e w2 ⟨rfl, hb⟩; have hbel := hbel.trans (hb.mono hbel.size); clear hb) | (go_at_call 28; refine (CT _ hbel).mono ?_; rintro e w2 ⟨rfl, hb⟩; have hbel := hbel.trans (hb.mono hbel.size); clear hb))
  go_loopw [7, 8] (fun y i wr => ∃ (k : Nat) (b : Bool), k ≤ n ∧ i = .int .i64 k ∧ y = .bool b ∧ Hid (b = (le && (ms.take k).all mayMsgB)) ∧ Below w.heap.size w wr) (fun _ i _ => n - (intOf i).toNat)
  case atStart => exact ⟨0, le, Nat.zero_le _, rfl, rfl, Lib.hid (by simp), hbel⟩
  case round =>
    clear hbel CL CT
    obtain ⟨k, b, hk, rfl, rfl, HB, hbel⟩ := hrel
    have hout : (b = false ∨ k = n) → Hid (b = (le && ms.all mayMsgB)) := fun h => by
      refine Lib.hid ?_
      rcases h with h | h
      · have q := HB.out
        rw [h] at q
        rw [h]
        cases hl : le
        · rfl
        · rw [hl, Bool.true_and] at q
          rw [Bool.true_and]
          cases ha : ms.all mayMsgB
          · rfl
          · exfalso
            have : (ms.take k).all mayMsgB = true := List.all_eq_true.2 (fun m hm => List.all_eq_true.1 ha m (List.mem_of_mem_take hm))
            rw [this] at q
            cases q
      · have q := HB.out
        rw [List.take_of_length_le (by rw [HN.out]; omega)] at q
        exact q
    have hmore : b = true → k < n → k < n := fun _ h => h
    by_cases hgo : b = true ∧ k < n
    · obtain ⟨rfl, hlt⟩ := hgo
      have d1 : decide ((k : Int) < (n : Int)) = true := decide_eq_true (by omega)
      have d1n : decide (k < n) = true := decide_eq_true hlt
      have hkl : k < ms.length := by rw [HN.out]; exact hlt
      obtain ⟨b1, o1, rfl, hb1, hg1⟩ := msg_range (hr.below hbel) hkl
      have ok1 := (hok _ (List.getElem_mem hkl)).below hbel
      have hta := all_takeL (p := mayMsgB) hkl
      obtain ⟨m, hm9⟩ : ∃ m, ms[k] = m := ⟨_, rfl⟩
      rw [hm9] at hg1 ok1 hta
      have CM := msgMay_any m wr ok1
      obtain ⟨km, em⟩ : ∃ b, mayMsgB m = b := ⟨_, rfl⟩
      simp only [em] at CM
      rw [em] at hta
      have HTA := Lib.hid hta
      clear hm9 hta em hout hmore
      have n0 : (0 : Int) ≤ (k : Int) := by omega
      have n1' : (k : Int) < (n : Int) := by omega
      have n2' : ((k : Nat) : Int).toNat = k := by omega
      go_wp2_with (first | (refine wpList_load_mid rfl 34 (.tmp 45) rfl b1 _ rfl m.row.toList _ hg1 Try.underlying34 rfl (msg_info _) ?_; rw [Array.toArray_toList]) | (go_at_call 17; refine CM.mono ?_; rintro e w2 ⟨rfl, hb⟩; have hbel := hbel.trans (hb.mono hbel.size); clear hb))
      go_roundw
      case rel => exact ⟨k + 1, km, by omega, by go_num, rfl, Lib.hid (by rw [HTA.out, ← Bool.and_assoc, ← HB.out]; rfl), hbel⟩
      case measure => (simp [intOf]) <;> omega
    · have HO := hout (by
        cases b
        · exact .inl rfl
        · exact .inr (Nat.le_antisymm hk (Nat.le_of_not_lt fun h => hgo ⟨rfl, h⟩)))
      clear hout hmore
      have hcond : (decide ((k : Int) < (n : Int)) = false ∧ decide (k < n) = false) ∨ (b = false ∧ decide ((k : Int) < (n : Int)) = true ∧ decide (k < n) = true) := by
        by_cases hlt : k < n
        · refine .inr ⟨?_, decide_eq_true (by omega), decide_eq_true hlt⟩
          cases b
          · rfl
          · exact absurd ⟨rfl, hlt⟩ hgo
        · exact .inl ⟨decide_eq_false (by omega), decide_eq_false hlt⟩
      clear hgo HB
      have key : ∀ (hbel : Below w.heap.size w wr), Hid (b = true → E = 0 ∧ B = ⟨(txBy ms).toArray⟩) ∧ Hid (b = false → E ≠ 0 ∧ B = ⟨#[]⟩) := fun _ => by
        rcases HC.out with ⟨q1, q2⟩ | ⟨q1, e, q2, q3⟩
        · rw [HLE.out, ← HO.out] at q1
          rw [HX.out, Prod.mk.injEq] at q2
          exact ⟨Lib.hid fun _ => ⟨q2.2, q2.1⟩, Lib.hid fun h => by rw [q1] at h; cases h⟩
        · rw [HLE.out, ← HO.out] at q1
          rw [HX.out, Prod.mk.injEq] at q3
          exact ⟨Lib.hid fun h => (by rw [q1] at h; cases h), Lib.hid fun _ => ⟨by rw [q3.2]; exact q2, q3.1⟩⟩
      obtain ⟨K1, K2⟩ := key hbel
      clear key
      cases b
      case false =>
        obtain ⟨hE, rfl⟩ := K2.out rfl
        have eE : (E == 0) = false := beq_eq_false_iff_ne.2 hE
        rcases hcond with ⟨d1, d1n⟩ | ⟨_, d1, d1n⟩
        · go_upto_region 17 with fail
          go_upto_region 18 with (go_at_call 30; refine (CU _).mono ?_; rintro e w5 ⟨a5, n5, cap5, ys, rfl, hyl, hyd, hyr, hyo, _, _, hb⟩; have hbel := hbel.trans (hb.mono hbel.size); clear hb)
          obtain ⟨f9, hf9⟩ : ∃ x, (decTx s).2 = x := ⟨_, rfl⟩
          simp only [hf9]
          by_cases hf : f9 = 0
          · subst hf
            have CX := fun W (hb : Below w5.heap.size w5 W) => msgTx_any a5 n5 cap5 ys W (hyr.below hb) (fun m hm => (hyo m hm).below hb) hyl
            rw [encTx_back hf9 hyd] at CX
            clear hf9 hyd hyo hyr
            go_wp2_with (go_at_call 28; refine (CX _ (Below.refl _ _)).mono ?_; rintro e w6 ⟨rfl, hb⟩; have hbel := hbel.trans (hb.mono hbel.size); clear hb)
            go_ret
            exact ⟨by first | rfl | simp, hbel⟩
          · have e9 : (f9 == 0) = false := beq_eq_false_iff_ne.2 hf
            have hz := decTx_err (s := s) (by rw [hf9]; exact hf)
            rw [hz] at hyd
            have hz5 : n5 = 0 := by rw [← hyl]; have := congrArg List.length hyd; rwa [List.length_map] at this
            subst hz5
            clear hf9 hyd hyo hyr hz hyl
            go_wp2
            go_ret
            exact ⟨by first | rfl | simp, hbel⟩
        · go_upto_region 17 with fail
          go_upto_region 18 with (go_at_call 30; refine (CU _).mono ?_; rintro e w5 ⟨a5, n5, cap5, ys, rfl, hyl, hyd, hyr, hyo, _, _, hb⟩; have hbel := hbel.trans (hb.mono hbel.size); clear hb)
          obtain ⟨f9, hf9⟩ : ∃ x, (decTx s).2 = x := ⟨_, rfl⟩
          simp only [hf9]
          by_cases hf : f9 = 0
          · subst hf
            have CX := fun W (hb : Below w5.heap.size w5 W) => msgTx_any a5 n5 cap5 ys W (hyr.below hb) (fun m hm => (hyo m hm).below hb) hyl
            rw [encTx_back hf9 hyd] at CX
            clear hf9 hyd hyo hyr
            go_wp2_with (go_at_call 28; refine (CX _ (Below.refl _ _)).mono ?_; rintro e w6 ⟨rfl, hb⟩; have hbel := hbel.trans (hb.mono hbel.size); clear hb)
            go_ret
            exact ⟨by first | rfl | simp, hbel⟩
          · have e9 : (f9 == 0) = false := beq_eq_false_iff_ne.2 hf
            have hz := decTx_err (s := s) (by rw [hf9]; exact hf)
            rw [hz] at hyd
            have hz5 : n5 = 0 := by rw [← hyl]; have := congrArg List.length hyd; rwa [List.length_map] at this
            subst hz5
            clear hf9 hyd hyo hyr hz hyl
            go_wp2
            go_ret
            exact ⟨by first | rfl | simp, hbel⟩
      case true =>
        obtain ⟨rfl, rfl⟩ := K1.out rfl
        have hall := HO.out
        rw [eq_comm, Bool.and_eq_true] at hall
        have h64 : ms.length ≤ 64 := by have := HLE.out; rw [hall.1] at this; exact of_decide_eq_true this
        have hlen := txBy_le h64 hall.2
        have hD := decTx_txBy h64 hall.2
        have hts : (⟨(txBy ms).toArray⟩ : ByteArray).size ≤ 1000000000 := by rw [bytes_size]; omega
        obtain ⟨T, hT⟩ : ∃ T : ByteArray, (⟨(txBy ms).toArray⟩ : ByteArray) = T := ⟨_, rfl⟩
        rw [hT] at hD hts
        simp only [hT]
        have CV := fun W => msgUntx_any T W hts
        unfold untxPost at CV
        simp only [hD] at CV
        clear hall h64 hlen hD hts hT K1 K2
        rcases hcond with ⟨d1, d1n⟩ | ⟨h, _⟩
        rotate_left
        · cases h
        go_upto_region 15 with (go_at_call 30; refine (CV _).mono ?_; rintro e w4 ⟨a4, n4, cap4, xs, rfl, hxl, hxd, hxr, hxo, hxc, hxm, hb⟩; have hbel := hbel.trans (hb.mono hbel.size); clear hb)
        have CS := msgs_any a4 a n4 n cap4 cap xs ms w4 hxr (hr.below hbel) hxo (fun m hm => (hok m hm).below hbel) hxl HN.out (Nat.le_trans hxc hxm)
        rw [show msgsB xs ms = true from (msgsB_iff _ _).2 hxd] at CS
        clear hxd hxr hxo hxl CV
        go_upto_region 17 with (go_at_call 32; refine CS.mono ?_; rintro e w3 ⟨rfl, hb⟩; have hbel := hbel.trans (hb.mono hbel.size); clear hb)
        go_upto_region 18 with (go_at_call 30; refine (CU _).mono ?_; rintro e w5 ⟨a5, n5, cap5, ys, rfl, hyl, hyd, hyr, hyo, _, _, hb⟩; have hbel := hbel.trans (hb.mono hbel.size); clear hb)
        obtain ⟨f9, hf9⟩ : ∃ x, (decTx s).2 = x := ⟨_, rfl⟩
        simp only [hf9]
        by_cases hf : f9 = 0
        · subst hf
          have CX := fun W (hb : Below w5.heap.size w5 W) => msgTx_any a5 n5 cap5 ys W (hyr.below hb) (fun m hm => (hyo m hm).below hb) hyl
          rw [encTx_back hf9 hyd] at CX
          clear hf9 hyd hyo hyr
          go_wp2_with (go_at_call 28; refine (CX _ (Below.refl _ _)).mono ?_; rintro e w6 ⟨rfl, hb⟩; have hbel := hbel.trans (hb.mono hbel.size); clear hb)
          go_ret
          exact ⟨by first | rfl | simp, hbel⟩
        · have e9 : (f9 == 0) = false := beq_eq_false_iff_ne.2 hf
          have hz := decTx_err (s := s) (by rw [hf9]; exact hf)
          rw [hz] at hyd
          have hz5 : n5 = 0 := by rw [← hyl]; have := congrArg List.length hyd; rwa [List.length_map] at this
          subst hz5
          clear hf9 hyd hyo hyr hz hyl
          go_wp2
          go_ret
          exact ⟨by first | rfl | simp, hbel⟩
end Go.Proofs.Ythipnkbfdkmhaaa
