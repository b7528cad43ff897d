/- TreeGrows, walked; a list of hashes that comes in. -/
import Derived.Test.YtfblbholkhdldaaDoorTop
import Derived.Test.YtfblbholkhdldaaDoorTreeDeep
import Derived.Test.YtfblbholkhdldaaDoorHashOpen
import Derived.WalkKit
import Derived.ProofKit
import Derived.Handy
import Derived.Below
import Derived.Lib.Hide
import Derived.IntWalk
import Derived.Outline
import Derived.WalkLawsBesides
import Derived.WalkSpells
namespace Go.Proofs.YtfblbholkhdldaaDoor
open Go.RowKit
attribute [local go_sem] strV
set_option linter.unusedVariables false
theorem load_hash_mid {W : World} {b off : Nat} {q : H32} (hg : W.rangeAt b off q.cells) (hb : b < W.heap.size) (n : Beyond W) :
    (Instr.loadAt 26 (.pointer (some ⟨b, off, none⟩))).run Tryd.prog n.x = .ok (.agg (hrow q.1)) n.x := by
  have hg2 : n.x.rangeAt b off q.cells := fun j v hv => by rw [n.h.cell (p := ⟨b, off + j, none⟩) hb]; exact hg j v hv
  exact run_loadAt_mid (P := Tryd.prog) n.x b off 26 q.cells _ hg2 Tryd.underlying26 rfl (by rw [H32.cells_len]; kernel_rfl)
set_option maxRecDepth 100000 in
set_option maxHeartbeats 12800000 in
theorem walkTreeGrows (a : Option Addr) (m cap : Nat) (l : List H32) (w : World) (hW : SW w) (hr : RowAt w a (l.flatMap H32.cells)) (hl : l.length = m) (hcap : m ≤ cap) (hcm : cap ≤ maxLen) :
    Calls Tryd.prog 11 #[.slice a m cap] w fun e w' => e = .returned (.bool true) ∧ Below w.heap.size w w' := by
  have hbel : Below w.heap.size w w := Below.refl _ _
  by_cases c1 : m < 2
  · have d1 : decide ((m : Int) < 2) = true := decide_eq_true (by omega)
    have d1n : decide (m < 2) = true := decide_eq_true (by omega)
    go_enter Tryd.func11, Tryd.ntmps11
    go_wp2_with (go_at_call 41; refine (first6_any _ hW).mono ?_; rintro e w0 ⟨rfl, hb⟩; have hW := hW.below hb; have hbel := hbel.trans (hb.mono hbel.size); clear hb)
    go_ret
    exact ⟨rfl, hbel⟩
  have d1 : decide ((m : Int) < 2) = false := decide_eq_false (by omega)
  have d1n : decide (m < 2) = false := decide_eq_false (by omega)
  by_cases c2 : 40 < m
  · have d2 : decide (40 < (m : Int)) = true := decide_eq_true (by omega)
    have d2n : decide (40 < m) = true := decide_eq_true (by omega)
    go_enter Tryd.func11, Tryd.ntmps11
    go_wp2_with (go_at_call 41; refine (first6_any _ hW).mono ?_; rintro e w0 ⟨rfl, hb⟩; have hW := hW.below hb; have hbel := hbel.trans (hb.mono hbel.size); clear hb)
    go_ret
    exact ⟨rfl, hbel⟩
  have d2 : decide (40 < (m : Int)) = false := decide_eq_false (by omega)
  have d2n : decide (40 < m) = false := decide_eq_false (by omega)
  have hm2 : 2 ≤ m := by omega
  have hT := topH_two (l := l) (by omega)
  have CH := fun W : World => half2_any (m : Int) W
  rw [show halfI (m : Int) = ((halfN m : Nat) : Int) by unfold halfI; rw [if_neg (by omega), Int.toNat_natCast]] at CH
  have hlt := halfN_lt hm2
  have hpos := halfN_pos m
  rw [hl] at hT
  obtain ⟨h, hh⟩ : ∃ h, halfN m = h := ⟨_, rfl⟩
  simp only [hh] at hT CH hlt hpos
  clear hh
  have d3 : decide ((h : Int) < 1) = false := decide_eq_false (by omega)
  have d3n : decide (h < 1) = false := decide_eq_false (by omega)
  have d4 : decide ((m : Int) ≤ (h : Int)) = false := decide_eq_false (by omega)
  have d4n : decide (m ≤ h) = false := decide_eq_false (by omega)
  go_enter Tryd.func11, Tryd.ntmps11
  go_upto_region 8 with (first | (go_at_call 41; refine (first6_any _ hW).mono ?_; rintro e w0 ⟨rfl, hb⟩; have hW := hW.below hb; have hbel := hbel.trans (hb.mono hbel.size); clear hb) | (go_at_call 42; refine (CH _).mono ?_; rintro e w1 ⟨rfl, hb⟩; have hW := hW.below hb; have hbel := hbel.trans (hb.mono hbel.size); clear hb))
  refine wp_nameE _ (fun W hX => ?_)
  have hbel : Below w.heap.size w W := by rw [hX]; exact hbel
  have hW : SW W := by rw [hX]; exact hW
  clear hX CH
  have hr := hr.below hbel
  obtain ⟨b, off, rfl, hb, hrg⟩ := hs_at hr (k := 0) (by omega)
  have hr1 := hs_take hr h
  have hr2 := hs_drop hr h
  have hr3 := hs_take hr 1
  obtain ⟨q0, ls, rfl⟩ : ∃ q ls, l = q :: ls := by
    cases l with
    | nil => simp at hl; omega
    | cons q ls => exact ⟨q, ls, rfl⟩
  simp only [Nat.zero_mul, Nat.add_zero, List.getElem_cons_zero] at hrg
  have C1 := fun n : Beyond W => top_any m (q0 :: ls) (some ⟨b, off, none⟩) cap n.x hl (by omega) hcap hcm (hr.below n.h) (hW.below n.h)
  have C2 := fun n : Beyond W => top_any h ((q0 :: ls).take h) (some ⟨b, off, none⟩) cap n.x (by rw [List.length_take]; omega) (by omega) (by omega) hcm (hr1.below n.h) (hW.below n.h)
  have C3 := fun n : Beyond W => top_any (m - h) ((q0 :: ls).drop h) (some ⟨b, off + h * 32, none⟩) (cap - h) n.x (by rw [List.length_drop]; omega) (by omega) (by omega) (by omega) (hr2.below n.h) (hW.below n.h)
  have C5 := fun n : Beyond W => top_any 1 ((q0 :: ls).take 1) (some ⟨b, off, none⟩) cap n.x (by rw [List.length_take]; omega) (by omega) (by omega) hcm (hr3.below n.h) (hW.below n.h)
  have C6 := fun n : Beyond W => top_any 0 [] none 0 n.x rfl (by omega) (by omega) (Nat.zero_le _) (RowAt.nil _ _) (hW.below n.h)
  simp only [show (q0 :: ls).take 1 = [q0] from rfl, topH_one] at C5
  simp only [topH_nil] at C6
  obtain ⟨T, hTT⟩ : ∃ T, topH (q0 :: ls) = T := ⟨_, rfl⟩
  obtain ⟨T1, hT1⟩ : ∃ T, topH ((q0 :: ls).take h) = T := ⟨_, rfl⟩
  obtain ⟨T2, hT2⟩ : ∃ T, topH ((q0 :: ls).drop h) = T := ⟨_, rfl⟩
  simp only [hTT] at C1 hT
  simp only [hT1] at C2 hT
  simp only [hT2] at C3 hT
  have C4 := fun n : Beyond W => node_any T1.1 T2.1 n.x (hW.below n.h) T1.2 T2.2
  rw [show nodeF T1.1 T2.1 = T.1 by rw [hT]; rfl] at C4
  have hEQ : ∀ (q : H32) (V : World), (Op.equalIn 10000 26 (.agg (hrow q.1)) (.agg (hrow q.1))).run Tryd.prog V = .ok true V := fun q V => by
    rw [run_equal_hash V 26 q.1 q.1 q.2 q.2 Tryd.underlying26 Tryd.underlying5 (by kernel_rfl)]; simp
  have hE1 := hEQ T
  have hE2 := hEQ q0
  have hE3 : ∀ V : World, (Op.equalIn 10000 26 (.agg (hrow zeroH.1)) (.agg #[Value.int .u8 0, Value.int .u8 0, Value.int .u8 0, Value.int .u8 0, Value.int .u8 0, Value.int .u8 0, Value.int .u8 0, Value.int .u8 0, Value.int .u8 0, Value.int .u8 0, Value.int .u8 0, Value.int .u8 0, Value.int .u8 0, Value.int .u8 0, Value.int .u8 0, Value.int .u8 0, Value.int .u8 0, Value.int .u8 0, Value.int .u8 0, Value.int .u8 0, Value.int .u8 0, Value.int .u8 0, Value.int .u8 0, Value.int .u8 0, Value.int .u8 0, Value.int .u8 0, Value.int .u8 0, Value.int .u8 0, Value.int .u8 0, Value.int .u8 0, Value.int .u8 0, Value.int .u8 0])).run Tryd.prog V = .ok true V := hEQ zeroH
  have lq := fun n => load_hash_mid hrg hb n
  clear hT hTT hT1 hT2 hr hr1 hr2 hr3 hrg hEQ
  have n1 : (0 : Int) ≤ (h : Int) := by omega
  have n2 : (h : Int) ≤ (cap : Int) := by omega
  have n3 : (h : Int) ≤ (m : Int) := by omega
  have n4 : (m : Int) ≤ (cap : Int) := by omega
  have n6 : h ≤ cap := by omega
  have n7 : h ≤ m := by omega
  have n8 : 1 ≤ cap := by omega
  have n9 : (1 : Int) ≤ (cap : Int) := by omega
  have n10 : (0 : Int) < (m : Int) := by omega
  have n11 : 0 < m := by omega
  obtain ⟨hcb, hfb⟩ := beyond_cells (W := W)
  refine wp_region_below (by kernel_rfl) (by kernel_rfl) ?_
  repeat (first | (go_big_quiet_want; refine quiet_load (v := .agg (hrow q0.1)) 26 (.tmp 43) rfl (by rfl) (by rintro _ ⟨n, rfl⟩; exact lq n) ?_; simp only [Act.put, List.setIfInBounds_toArray, List.set_cons_succ, List.set_cons_zero]; go_big_quiet_on) | (go_big_quiet_step (first | (go_at_call 44; first | (with_reducible exact quiet_below (C1 _)) | (with_reducible exact quiet_below (C2 _)) | (with_reducible exact quiet_below (C3 _)) | (with_reducible exact quiet_below (C5 _)) | (with_reducible exact quiet_below (C6 _))) | (go_at_call 45; exact quiet_below (C4 _)))))
  intro w9 hw9
  have hb9 := beyond_below hw9
  clear hcb hfb
  go_wp2
  go_ret
  exact ⟨rfl, hbel.trans (hb9.mono hbel.size)⟩
section
open Go.ChangeShapes Go.WideShapes Go.Deep
variable {Hh : Type} {enc : TypeId × Value → Hh} {w : World} {base : Nat} {spare : Nat → Bool} {held : Bool}
theorem h32_open {r : List Value} (hl : r.length = Tryd.prog.cellsOf 26) (h : Reads enc Tryd.prog w base spare held 26 r) : ∃ q : H32, r = q.cells := by
  have hc : Tryd.prog.cellsOf 26 = 32 := by kernel_rfl
  obtain ⟨q, hq, hr⟩ := h.bytes Tryd.underlying26 Tryd.underlying5 (by kernel_rfl) (by rw [hl, hc])
  exact ⟨⟨q, hq⟩, hr⟩
end
end Go.Proofs.YtfblbholkhdldaaDoor
