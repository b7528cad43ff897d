/- ShaTells, walked. -/
import Derived.Test.YtfblbholkhdldaaDoorHexR
import Derived.Test.YtfblbholkhdldaaDoorTxt
import Derived.Test.YtfblbholkhdldaaDoorShaLess
import Derived.WalkKit
import Derived.ProofKit
import Derived.Handy
import Derived.Below
import Derived.Lib.Hide
import Derived.IntWalk
import Derived.Outline
import Derived.WalkLawsBesides
import Derived.WalkSpells
namespace Go.Proofs.YtfblbholkhdldaaDoor
open Go.RowKit
attribute [local go_sem] strV
set_option linter.unusedVariables false
set_option maxRecDepth 100000 in
set_option maxHeartbeats 3200000 in
theorem joined_any (a : Option Addr) (n cap : Nat) (ss : List ByteArray) (w : World) (hr : RowAt w a (ss.flatMap sval)) (hn : ss.length = n) (hnm : n ≤ 1000) (hz : (flat ss).length ≤ 1000000) :
    Calls Tryd.prog 19 #[.slice a n cap] w fun e w' => (∃ T : ByteArray, e = .returned (.string T) ∧ T.data.toList = flat ss) ∧ Below w.heap.size w w' := by
  have HN := Lib.hid hn
  have HZ := Lib.hid hz
  go_enter Tryd.func19, Tryd.ntmps19
  go_upto_region 3 with fail
  go_loopw [3, 4] (fun t i wr => ∃ (k : Nat) (T : ByteArray), k ≤ n ∧ Below w.heap.size w wr ∧ Hid (T.data.toList = flat (ss.take k)) ∧ t = .string T ∧ i = .int .i64 k) (fun _ i _ => n - (intOf i).toNat)
  case atStart => exact ⟨0, ⟨#[]⟩, Nat.zero_le _, Below.refl _ _, Lib.hid rfl, rfl, rfl⟩
  case round =>
    obtain ⟨k, T, hk, hbel, HT, rfl, rfl⟩ := hrel
    by_cases hlt : k < n
    · have d1 : decide ((k : Int) < (n : Int)) = true := decide_eq_true (by omega)
      have hks : k < ss.length := by have := HN.out; omega
      obtain ⟨b0, off, ha, hc⟩ := str_cell hr hbel hks
      subst ha
      obtain ⟨s, hs⟩ : ∃ s, ss[k] = s := ⟨_, rfl⟩
      have hft := flat_take hks
      rw [hs] at hc hft
      have hT1 : T.size = (flat (ss.take k)).length := by rw [← str_len, HT.out]
      have hT2 : (flat (ss.take (k + 1))).length ≤ (flat ss).length := flat_len
      rw [hft, List.length_append, str_len] at hT2
      have hcat : ¬ 9223372036854775807 < T.size + s.size := by have := HZ.out; omega
      have n0 : (0 : Int) ≤ (k : Int) := by omega
      have n1 : (k : Int) < (n : Int) := by omega
      have n2 : ((k : Nat) : Int).toNat = k := by omega
      have HF := Lib.hid hft
      clear hs hft hT1 hT2
      go_wp2
      go_roundw
      case rel => exact ⟨k + 1, T ++ s, by omega, hbel, Lib.hid (by rw [HF.out, ← HT.out]; simp), rfl, by go_num⟩
      case measure => (simp [intOf]) <;> omega
    · have d1 : decide ((k : Int) < (n : Int)) = false := decide_eq_false (by omega)
      have hT := HT.out
      rw [List.take_of_length_le (by have := HN.out; omega)] at hT
      have HT2 := Lib.hid hT
      clear hT
      go_wp2
      go_ret
      exact ⟨⟨T, rfl, HT2.out⟩, hbel⟩
theorem put_none (a : Act) (v : Value) : a.put none v = a := rfl
theorem push0 (w : World) (c d : Array Value) {t u : TypeId} : ((w.alloc (.cells c t)).alloc (.cells d u)).heap[w.heap.size]? = some (.cells c t (0, 0)) := by
  show ((w.heap.push _).push _)[w.heap.size]? = _
  rw [Array.getElem?_push_lt (by simp), ← Array.getElem?_eq_getElem (by simp), Array.getElem?_push_size]
theorem push1 (w : World) (c d z : Array Value) {t u : TypeId} : (((w.alloc (.cells c t)).alloc (.cells d u)).setRow w.heap.size z).heap[w.heap.size + 1]? = some (.cells d u (0, 0)) := by
  rw [setRow_other _ _ _ _ (by omega)]
  show ((w.heap.push _).push _)[w.heap.size + 1]? = _
  rw [show w.heap.size + 1 = (w.heap.push (Obj.cells c t)).size by simp, Array.getElem?_push_size]
set_option maxRecDepth 100000 in
set_option maxHeartbeats 12800000 in
theorem walkShaTells (a : Option Addr) (n cap : Nat) (ss : List ByteArray) (w : World) (hW : SW w) (hr : RowAt w a (ss.flatMap sval)) (hn : ss.length = n) (hnm : n ≤ maxLen) :
    Calls Tryd.prog 3 #[.slice a n cap] w fun e w' => e = .returned (.bool true) ∧ Below w.heap.size w w' := by
  have hbel : Below w.heap.size w w := Below.refl _ _
  obtain ⟨lb, hlb⟩ : ∃ b, ltB ss 8 600 = b := ⟨_, rfl⟩
  have CL := fun (W : World) h => lightTexts_any a n cap ss 8 600 W h hn (by omega) (by omega) hnm
  simp only [hlb] at CL
  go_enter Tryd.func3, Tryd.ntmps3
  go_upto_region 3 with (go_at_call 15; refine (first2_any _ hW).mono ?_; rintro e w0 ⟨rfl, hb⟩; have hW := hW.below hb; have hbel := hbel.trans (hb.mono hbel.size))
  cases lb
  · go_wp2_with (first | (go_at_call 16; refine (CL _ (hr.below hbel)).mono ?_; rintro e w3 ⟨rfl, hb⟩; have hW := hW.below hb; have hbel := hbel.trans (hb.mono hbel.size)) | (go_at_call 15; refine (first2_any _ hW).mono ?_; rintro e w0 ⟨rfl, hb⟩; have hW := hW.below hb; have hbel := hbel.trans (hb.mono hbel.size)))
    go_ret
    exact ⟨rfl, hbel⟩
  have hl8 : ss.length ≤ 8 ∧ (flat ss).length ≤ 600 := by
    unfold ltB at hlb
    simp only [Bool.and_eq_true, decide_eq_true_eq] at hlb
    exact ⟨hlb.1.1, hlb.2⟩
  have HN := Lib.hid hn
  have hn8 : n ≤ 8 := by rw [← hn]; exact hl8.1
  have hf6 := hl8.2
  obtain ⟨Q, hQ⟩ : ∃ Q, shaF (flat ss) = Q := ⟨_, rfl⟩
  have hQl : Q.length = 32 := by rw [← hQ]; exact shaF_len _
  have HQ := Lib.hid hQ
  have CS := fun (W : World) h h2 => sum_any a n cap ss W h hn h2 (by omega) hnm
  simp only [hQ] at CS
  have hz : (hrow Q).size = 32 := by rw [hrow_size]; exact hQl
  have hone := hrow_one Q
  have hZZ : ∀ w : World, ((w.alloc (.cells #[Value.int .u8 0, Value.int .u8 0, Value.int .u8 0, Value.int .u8 0, Value.int .u8 0, Value.int .u8 0, Value.int .u8 0, Value.int .u8 0, Value.int .u8 0, Value.int .u8 0, Value.int .u8 0, Value.int .u8 0, Value.int .u8 0, Value.int .u8 0, Value.int .u8 0, Value.int .u8 0, Value.int .u8 0, Value.int .u8 0, Value.int .u8 0, Value.int .u8 0, Value.int .u8 0, Value.int .u8 0, Value.int .u8 0, Value.int .u8 0, Value.int .u8 0, Value.int .u8 0, Value.int .u8 0, Value.int .u8 0, Value.int .u8 0, Value.int .u8 0, Value.int .u8 0, Value.int .u8 0] 26)).heap[w.heap.size]? = some (.cells #[Value.int .u8 0, Value.int .u8 0, Value.int .u8 0, Value.int .u8 0, Value.int .u8 0, Value.int .u8 0, Value.int .u8 0, Value.int .u8 0, Value.int .u8 0, Value.int .u8 0, Value.int .u8 0, Value.int .u8 0, Value.int .u8 0, Value.int .u8 0, Value.int .u8 0, Value.int .u8 0, Value.int .u8 0, Value.int .u8 0, Value.int .u8 0, Value.int .u8 0, Value.int .u8 0, Value.int .u8 0, Value.int .u8 0, Value.int .u8 0, Value.int .u8 0, Value.int .u8 0, Value.int .u8 0, Value.int .u8 0, Value.int .u8 0, Value.int .u8 0, Value.int .u8 0, Value.int .u8 0] 26 (0, 0))) := fun w => heap_push _ _ _
  clear hlb hQ hl8
  go_upto_region 5 with (go_at_call 16; refine (CL _ (hr.below hbel)).mono ?_; rintro e w3 ⟨rfl, hb⟩; have hW := hW.below hb; have hbel := hbel.trans (hb.mono hbel.size))
  go_upto_region 6 with (first | (go_at_call 17; refine (CS _ (hr.below hbel) hW).mono ?_; rintro e w4 ⟨rfl, hb⟩; have hW := hW.below hb; have hbel := hbel.trans (hb.mono hbel.size)) | (go_at_call 19; refine (joined_any a n cap ss _ (hr.below hbel) hn (by omega) (by omega)).mono ?_; rintro e w5 ⟨⟨T, rfl, hT⟩, hb⟩; have hTs : T.size ≤ 1000000 := (by rw [← str_len, hT]; omega); have CR := (fun W => refSum_any T W hTs); simp only [hT, HQ.out] at CR; have HT := Lib.hid hT; clear hT; have hbel := hbel.trans (hb.mono hbel.size)) | (go_at_call 18; refine (CR _).mono ?_; rintro e w6 ⟨rfl, hb⟩; have hbel := hbel.trans (hb.mono hbel.size)) | (refine wpList_storeRowTo rfl (.tmp 3) (.tmp 12) 26 rfl (by rw [hz]; kernel_rfl) rfl (by rfl) (push0 _ _ _) (by rw [hz]; rfl) hone ?_) | (refine wpList_storeRowTo rfl (.tmp 4) (.tmp 15) 26 rfl (by rw [hz]; kernel_rfl) rfl (by rfl) (push1 _ _ _ _) (by rw [hz]; rfl) hone ?_))
  refine wp_nameE _ (fun W hX => ?_)
  have y3 : W.heap[w6.heap.size]? = some (.cells (hrow Q) 26 (0, 0)) := by rw [hX, setRow_other _ _ _ _ (by omega)]; exact setRow_heap _ _ _ _ _ _ (push0 _ _ _)
  have y4 : W.heap[w6.heap.size + 1]? = some (.cells (hrow Q) 26 (0, 0)) := by rw [hX]; exact setRow_heap _ _ _ _ _ _ (push1 _ _ _ _)
  have hbX : Below w6.heap.size w6 W := by rw [hX]; exact below_setRow (below_setRow (Below.alloc (Below.alloc (Below.refl _ _) (Nat.le_refl _) _) (by simp) _) (Nat.le_refl _) _) (by omega) _
  have hbel := hbel.trans (hbX.mono hbel.size)
  clear hX hbX
  have l3 := fun n => load_hash y3 hQl n
  have l4 := fun n => load_hash y4 hQl n
  have hEQ : ∀ V : World, (Op.equalIn 10000 26 (.agg (hrow Q)) (.agg (hrow Q))).run Tryd.prog V = .ok true V := fun V => by
    rw [run_equal_hash V 26 Q Q hQl hQl Tryd.underlying26 Tryd.underlying5 (by kernel_rfl)]; simp
  have C1 := fun (n : Beyond W) => shaText_any Q n.x hQl
  have C2 := fun (n : Beyond W) => refText_any n.x Q hQl
  have C3 := fun (n : Beyond W) => hex_any Q n.x hQl
  have hts : (⟨Q.toArray⟩ : ByteArray).size ≤ 1000000 := by show Q.toArray.size ≤ _; simp; omega
  have C4 := fun (n : Beyond W) => refHex_any ⟨Q.toArray⟩ n.x hts
  simp only at C4
  obtain ⟨T1, hT1⟩ : ∃ T, (⟨Q.toArray⟩ : ByteArray) = T := ⟨_, rfl⟩
  obtain ⟨T2, hT2⟩ : ∃ T, (⟨(hexL Q).toArray⟩ : ByteArray) = T := ⟨_, rfl⟩
  simp only [hT1] at C1 C2 C4
  simp only [hT2] at C3 C4
  clear hT1 hT2 hts
  simp only [put_none]
  obtain ⟨hcb, hfb⟩ := beyond_cells (W := W)
  refine wp_region_below (by kernel_rfl) (by kernel_rfl) ?_
  repeat (first | (go_big_quiet_want; refine quiet_load (v := .agg (hrow Q)) 26 (.tmp 3) rfl (by rfl) (by rintro _ ⟨n, rfl⟩; exact l3 n) ?_; simp only [Act.put, List.setIfInBounds_toArray, List.set_cons_succ, List.set_cons_zero]; go_big_quiet_on) | (go_big_quiet_want; refine quiet_load (v := .agg (hrow Q)) 26 (.tmp 4) rfl (by rfl) (by rintro _ ⟨n, rfl⟩; exact l4 n) ?_; simp only [Act.put, List.setIfInBounds_toArray, List.set_cons_succ, List.set_cons_zero]; go_big_quiet_on) | (go_big_quiet_step (first | (go_at_call 20; exact quiet_below (C1 _)) | (go_at_call 21; exact quiet_below (C2 _)) | (go_at_call 22; exact quiet_below (C3 _)) | (go_at_call 23; exact quiet_below (C4 _)))))
  intro w9 hw9
  have hb9 := beyond_below hw9
  clear hcb hfb
  go_wp2
  go_ret
  exact ⟨rfl, hbel.trans (hb9.mono hbel.size)⟩
end Go.Proofs.YtfblbholkhdldaaDoor
