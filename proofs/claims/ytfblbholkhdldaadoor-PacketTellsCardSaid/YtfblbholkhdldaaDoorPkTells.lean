/- PacketTells, walked. -/
import Derived.Test.YtfblbholkhdldaaDoorPkQ
import Derived.Test.YtfblbholkhdldaaDoorShaLess
import Derived.WalkKit
import Derived.ProofKit
import Derived.Handy
import Derived.Below
import Derived.Lib.Hide
import Derived.IntWalk
import Derived.Outline
import Derived.WalkLawsBesides
import Derived.WalkSpells
namespace Go.Proofs.YtfblbholkhdldaaDoor
open Go.RowKit
attribute [local go_sem] strV
set_option linter.unusedVariables false
/-- The commitment of a packet, whether it may be or not. -/
def comB (sp : ByteArray) (sc : Int) (dp : ByteArray) (dc sq : Int) (da : ByteArray) (th ta : Int) : List UInt8 := bif mayK sp sc dp dc sq da th ta then comF da th ta else z32
theorem comB_len (sp : ByteArray) (sc : Int) (dp : ByteArray) (dc sq : Int) (da : ByteArray) (th ta : Int) : (comB sp sc dp dc sq da th ta).length = 32 := by
  unfold comB; cases mayK sp sc dp dc sq da th ta
  · rfl
  · exact comF_len _ _ _
set_option maxRecDepth 100000 in
set_option maxHeartbeats 6400000 in
theorem commitB_any (sp : ByteArray) (sc : Int) (dp : ByteArray) (dc sq : Int) (da : ByteArray) (th ta : Int) (w : World) (hW : SW w) (h1 : sp.size ≤ maxLen) (h2 : dp.size ≤ maxLen) :
    Calls Tryd.prog 30 #[.agg #[.string sp, .int .i64 sc, .string dp, .int .i64 dc, .int .i64 sq, .string da, .int .i64 th, .int .i64 ta]] w fun e w' => e = .returned (.agg (hrow (comB sp sc dp dc sq da th ta))) ∧ Below w.heap.size w w' := by
  have CM := fun W => mayPk_any sp sc dp dc sq da th ta W h1 h2
  cases hM : mayK sp sc dp dc sq da th ta
  · have HR : Hid (comB sp sc dp dc sq da th ta = z32) := Lib.hid (by unfold comB; rw [hM]; rfl)
    simp only [hM] at CM
    have g0 := al2_0 w (.cells #[.string sp, .int .i64 sc, .string dp, .int .i64 dc, .int .i64 sq, .string da, .int .i64 th, .int .i64 ta] 45) (.cells #[Value.int .u8 0, Value.int .u8 0, Value.int .u8 0, Value.int .u8 0, Value.int .u8 0, Value.int .u8 0, Value.int .u8 0, Value.int .u8 0, Value.int .u8 0, Value.int .u8 0, Value.int .u8 0, Value.int .u8 0, Value.int .u8 0, Value.int .u8 0, Value.int .u8 0, Value.int .u8 0, Value.int .u8 0, Value.int .u8 0, Value.int .u8 0, Value.int .u8 0, Value.int .u8 0, Value.int .u8 0, Value.int .u8 0, Value.int .u8 0, Value.int .u8 0, Value.int .u8 0, Value.int .u8 0, Value.int .u8 0, Value.int .u8 0, Value.int .u8 0, Value.int .u8 0, Value.int .u8 0] 26)
    have g1 := al2_1 w (.cells #[.string sp, .int .i64 sc, .string dp, .int .i64 dc, .int .i64 sq, .string da, .int .i64 th, .int .i64 ta] 45) (.cells #[Value.int .u8 0, Value.int .u8 0, Value.int .u8 0, Value.int .u8 0, Value.int .u8 0, Value.int .u8 0, Value.int .u8 0, Value.int .u8 0, Value.int .u8 0, Value.int .u8 0, Value.int .u8 0, Value.int .u8 0, Value.int .u8 0, Value.int .u8 0, Value.int .u8 0, Value.int .u8 0, Value.int .u8 0, Value.int .u8 0, Value.int .u8 0, Value.int .u8 0, Value.int .u8 0, Value.int .u8 0, Value.int .u8 0, Value.int .u8 0, Value.int .u8 0, Value.int .u8 0, Value.int .u8 0, Value.int .u8 0, Value.int .u8 0, Value.int .u8 0, Value.int .u8 0, Value.int .u8 0] 26)
    have hbA := al2_below w (.cells #[.string sp, .int .i64 sc, .string dp, .int .i64 dc, .int .i64 sq, .string da, .int .i64 th, .int .i64 ta] 45) (.cells #[Value.int .u8 0, Value.int .u8 0, Value.int .u8 0, Value.int .u8 0, Value.int .u8 0, Value.int .u8 0, Value.int .u8 0, Value.int .u8 0, Value.int .u8 0, Value.int .u8 0, Value.int .u8 0, Value.int .u8 0, Value.int .u8 0, Value.int .u8 0, Value.int .u8 0, Value.int .u8 0, Value.int .u8 0, Value.int .u8 0, Value.int .u8 0, Value.int .u8 0, Value.int .u8 0, Value.int .u8 0, Value.int .u8 0, Value.int .u8 0, Value.int .u8 0, Value.int .u8 0, Value.int .u8 0, Value.int .u8 0, Value.int .u8 0, Value.int .u8 0, Value.int .u8 0, Value.int .u8 0] 26)
    have hz : (hrow z32).size = 32 := by rfl
    have hzone := hrow_one z32
    clear hM
    go_enter Tryd.func30, Tryd.ntmps30
    go_upto_region 1 with fail
    refine wp_nameE _ (fun W1 hX => ?_)
    have hg : W1.heap[w.heap.size]? = some (.cells #[.string sp, .int .i64 sc, .string dp, .int .i64 dc, .int .i64 sq, .string da, .int .i64 th, .int .i64 ta] 45 (0, 0)) := by rw [hX]; exact g0
    have y9 : W1.heap[w.heap.size + 1]? = some (.cells #[Value.int .u8 0, Value.int .u8 0, Value.int .u8 0, Value.int .u8 0, Value.int .u8 0, Value.int .u8 0, Value.int .u8 0, Value.int .u8 0, Value.int .u8 0, Value.int .u8 0, Value.int .u8 0, Value.int .u8 0, Value.int .u8 0, Value.int .u8 0, Value.int .u8 0, Value.int .u8 0, Value.int .u8 0, Value.int .u8 0, Value.int .u8 0, Value.int .u8 0, Value.int .u8 0, Value.int .u8 0, Value.int .u8 0, Value.int .u8 0, Value.int .u8 0, Value.int .u8 0, Value.int .u8 0, Value.int .u8 0, Value.int .u8 0, Value.int .u8 0, Value.int .u8 0, Value.int .u8 0] 26 (0, 0)) := by rw [hX]; exact g1
    have hbel : Below w.heap.size w W1 := by rw [hX]; exact hbA
    clear hX g0 g1 hbA
    have hy9 : w.heap.size + 1 < W1.heap.size := (Array.getElem?_eq_some_iff.1 y9).1
    have q0 := cell_heap hg 0; have q1 := cell_heap hg 1; have q2 := cell_heap hg 2; have q3 := cell_heap hg 3; have q4 := cell_heap hg 4; have q5 := cell_heap hg 5; have q6 := cell_heap hg 6; have q7 := cell_heap hg 7
    go_wp2_with (first | (go_at_call 37; refine (CM _).mono ?_; rintro e w2 ⟨rfl, hb⟩; have y9 := cells_of y9 hb hy9; have hbel := hbel.trans (hb.mono hbel.size); clear hb) | (refine wpList_storeRowTo (Z := hrow z32) rfl (.tmp 2) (.tmp 6) 26 rfl (by rw [hz]; kernel_rfl) rfl (by rfl) y9 (by rw [hz]; rfl) hzone ?_))
    refine bodyPost_ret (v := .agg (hrow z32)) ?_ rfl ?_
    · simp [results, Tryd.results30, asAddr]
      exact run_loadVar_row _ _ 26 26 _ (0, 0) _ (setRow_heap _ _ _ _ _ _ y9) Tryd.underlying26 rfl (by rw [hz]; kernel_rfl)
    exact ⟨by rw [HR.out], below_setRow hbel (by omega) _⟩
  · have := commit_any sp sc dp dc sq da th ta w hW hM
    unfold comB
    rw [hM]
    exact this
set_option maxRecDepth 100000 in
set_option maxHeartbeats 25600000 in
theorem walkPacketTells (sp : ByteArray) (sc : Int) (dp : ByteArray) (dc sq : Int) (da : ByteArray) (th ta : Int) (sp2 : ByteArray) (sc2 : Int) (dp2 : ByteArray) (dc2 sq2 : Int) (da2 : ByteArray) (th2 ta2 : Int) (ht tm : Int) (v : ByteArray) (w : World) (hW : SW w) (s1 : sp.size ≤ maxLen) (s2 : dp.size ≤ maxLen) (s3 : sp2.size ≤ maxLen) (s4 : dp2.size ≤ maxLen) (hv : v.size ≤ maxLen) :
    Calls Tryd.prog 7 #[.agg #[.string sp, .int .i64 sc, .string dp, .int .i64 dc, .int .i64 sq, .string da, .int .i64 th, .int .i64 ta], .agg #[.string sp2, .int .i64 sc2, .string dp2, .int .i64 dc2, .int .i64 sq2, .string da2, .int .i64 th2, .int .i64 ta2], .int .i64 ht, .int .i64 tm, .string v] w fun e w' => e = .returned (.bool true) ∧ Below w.heap.size w w' := by
  have hg0 := al2_0 w (.cells #[.string sp, .int .i64 sc, .string dp, .int .i64 dc, .int .i64 sq, .string da, .int .i64 th, .int .i64 ta] 45) (.cells #[.string sp2, .int .i64 sc2, .string dp2, .int .i64 dc2, .int .i64 sq2, .string da2, .int .i64 th2, .int .i64 ta2] 45)
  have hh0 := al2_1 w (.cells #[.string sp, .int .i64 sc, .string dp, .int .i64 dc, .int .i64 sq, .string da, .int .i64 th, .int .i64 ta] 45) (.cells #[.string sp2, .int .i64 sc2, .string dp2, .int .i64 dc2, .int .i64 sq2, .string da2, .int .i64 th2, .int .i64 ta2] 45)
  have hbA := al2_below w (.cells #[.string sp, .int .i64 sc, .string dp, .int .i64 dc, .int .i64 sq, .string da, .int .i64 th, .int .i64 ta] 45) (.cells #[.string sp2, .int .i64 sc2, .string dp2, .int .i64 dc2, .int .i64 sq2, .string da2, .int .i64 th2, .int .i64 ta2] 45)
  have CL1 := fun W => light_any sp sc dp dc sq da th ta W
  have CL2 := fun W => light_any sp2 sc2 dp2 dc2 sq2 da2 th2 ta2 W
  obtain ⟨l1, hl1⟩ : ∃ b, lightK sp dp da = b := ⟨_, rfl⟩
  obtain ⟨l2, hl2⟩ : ∃ b, lightK sp2 dp2 da2 = b := ⟨_, rfl⟩
  simp only [hl1] at CL1
  simp only [hl2] at CL2
  go_enter Tryd.func7, Tryd.ntmps7
  go_upto_region 1 with fail
  refine wp_nameE _ (fun W1 hX => ?_)
  have hg : W1.heap[w.heap.size]? = some (.cells #[.string sp, .int .i64 sc, .string dp, .int .i64 dc, .int .i64 sq, .string da, .int .i64 th, .int .i64 ta] 45 (0, 0)) := by rw [hX]; exact hg0
  have hh : W1.heap[w.heap.size + 1]? = some (.cells #[.string sp2, .int .i64 sc2, .string dp2, .int .i64 dc2, .int .i64 sq2, .string da2, .int .i64 th2, .int .i64 ta2] 45 (0, 0)) := by rw [hX]; exact hh0
  have hbel : Below w.heap.size w W1 := by rw [hX]; exact hbA
  have hW0 := hW
  have hW := hW.below hbel
  clear hX hg0 hh0 hbA
  have hgl : w.heap.size < W1.heap.size := (Array.getElem?_eq_some_iff.1 hg).1
  have hhl : w.heap.size + 1 < W1.heap.size := (Array.getElem?_eq_some_iff.1 hh).1
  have q0 := cell_heap hg 0; have q1 := cell_heap hg 1; have q2 := cell_heap hg 2; have q3 := cell_heap hg 3; have q4 := cell_heap hg 4; have q5 := cell_heap hg 5; have q6 := cell_heap hg 6; have q7 := cell_heap hg 7
  have r0 := cell_heap hh 0; have r1 := cell_heap hh 1; have r2 := cell_heap hh 2; have r3 := cell_heap hh 3; have r4 := cell_heap hh 4; have r5 := cell_heap hh 5; have r6 := cell_heap hh 6; have r7 := cell_heap hh 7
  cases l1
  · go_wp2_with (first | (go_at_call 28; refine (first5_any _).mono ?_; rintro e w0 ⟨rfl, hb⟩; have hg := cells_of hg hb hgl; have hh := cells_of hh hb hhl; have hgl := Nat.lt_of_lt_of_le hgl hb.size; have hhl := Nat.lt_of_lt_of_le hhl hb.size; have hW := hW.below hb; have hbel := hbel.trans (hb.mono hbel.size); have q0 := cell_heap hg 0; have q1 := cell_heap hg 1; have q2 := cell_heap hg 2; have q3 := cell_heap hg 3; have q4 := cell_heap hg 4; have q5 := cell_heap hg 5; have q6 := cell_heap hg 6; have q7 := cell_heap hg 7; have r0 := cell_heap hh 0; have r1 := cell_heap hh 1; have r2 := cell_heap hh 2; have r3 := cell_heap hh 3; have r4 := cell_heap hh 4; have r5 := cell_heap hh 5; have r6 := cell_heap hh 6; have r7 := cell_heap hh 7; clear hb) | (go_at_call 29; first | (with_reducible refine (CL1 _).mono ?_; rintro e w1 ⟨rfl, hb⟩; have hg := cells_of hg hb hgl; have hh := cells_of hh hb hhl; have hgl := Nat.lt_of_lt_of_le hgl hb.size; have hhl := Nat.lt_of_lt_of_le hhl hb.size; have hW := hW.below hb; have hbel := hbel.trans (hb.mono hbel.size); have q0 := cell_heap hg 0; have q1 := cell_heap hg 1; have q2 := cell_heap hg 2; have q3 := cell_heap hg 3; have q4 := cell_heap hg 4; have q5 := cell_heap hg 5; have q6 := cell_heap hg 6; have q7 := cell_heap hg 7; have r0 := cell_heap hh 0; have r1 := cell_heap hh 1; have r2 := cell_heap hh 2; have r3 := cell_heap hh 3; have r4 := cell_heap hh 4; have r5 := cell_heap hh 5; have r6 := cell_heap hh 6; have r7 := cell_heap hh 7; clear hb) | (with_reducible refine (CL2 _).mono ?_; rintro e w1 ⟨rfl, hb⟩; have hg := cells_of hg hb hgl; have hh := cells_of hh hb hhl; have hgl := Nat.lt_of_lt_of_le hgl hb.size; have hhl := Nat.lt_of_lt_of_le hhl hb.size; have hW := hW.below hb; have hbel := hbel.trans (hb.mono hbel.size); have q0 := cell_heap hg 0; have q1 := cell_heap hg 1; have q2 := cell_heap hg 2; have q3 := cell_heap hg 3; have q4 := cell_heap hg 4; have q5 := cell_heap hg 5; have q6 := cell_heap hg 6; have q7 := cell_heap hg 7; have r0 := cell_heap hh 0; have r1 := cell_heap hh 1; have r2 := cell_heap hh 2; have r3 := cell_heap hh 3; have r4 := cell_heap hh 4; have r5 := cell_heap hh 5; have r6 := cell_heap hh 6; have r7 := cell_heap hh 7; clear hb)))
    go_ret
    exact ⟨rfl, hbel⟩
  cases l2
  · go_wp2_with (first | (go_at_call 28; refine (first5_any _).mono ?_; rintro e w0 ⟨rfl, hb⟩; have hg := cells_of hg hb hgl; have hh := cells_of hh hb hhl; have hgl := Nat.lt_of_lt_of_le hgl hb.size; have hhl := Nat.lt_of_lt_of_le hhl hb.size; have hW := hW.below hb; have hbel := hbel.trans (hb.mono hbel.size); have q0 := cell_heap hg 0; have q1 := cell_heap hg 1; have q2 := cell_heap hg 2; have q3 := cell_heap hg 3; have q4 := cell_heap hg 4; have q5 := cell_heap hg 5; have q6 := cell_heap hg 6; have q7 := cell_heap hg 7; have r0 := cell_heap hh 0; have r1 := cell_heap hh 1; have r2 := cell_heap hh 2; have r3 := cell_heap hh 3; have r4 := cell_heap hh 4; have r5 := cell_heap hh 5; have r6 := cell_heap hh 6; have r7 := cell_heap hh 7; clear hb) | (go_at_call 29; first | (with_reducible refine (CL1 _).mono ?_; rintro e w1 ⟨rfl, hb⟩; have hg := cells_of hg hb hgl; have hh := cells_of hh hb hhl; have hgl := Nat.lt_of_lt_of_le hgl hb.size; have hhl := Nat.lt_of_lt_of_le hhl hb.size; have hW := hW.below hb; have hbel := hbel.trans (hb.mono hbel.size); have q0 := cell_heap hg 0; have q1 := cell_heap hg 1; have q2 := cell_heap hg 2; have q3 := cell_heap hg 3; have q4 := cell_heap hg 4; have q5 := cell_heap hg 5; have q6 := cell_heap hg 6; have q7 := cell_heap hg 7; have r0 := cell_heap hh 0; have r1 := cell_heap hh 1; have r2 := cell_heap hh 2; have r3 := cell_heap hh 3; have r4 := cell_heap hh 4; have r5 := cell_heap hh 5; have r6 := cell_heap hh 6; have r7 := cell_heap hh 7; clear hb) | (with_reducible refine (CL2 _).mono ?_; rintro e w1 ⟨rfl, hb⟩; have hg := cells_of hg hb hgl; have hh := cells_of hh hb hhl; have hgl := Nat.lt_of_lt_of_le hgl hb.size; have hhl := Nat.lt_of_lt_of_le hhl hb.size; have hW := hW.below hb; have hbel := hbel.trans (hb.mono hbel.size); have q0 := cell_heap hg 0; have q1 := cell_heap hg 1; have q2 := cell_heap hg 2; have q3 := cell_heap hg 3; have q4 := cell_heap hg 4; have q5 := cell_heap hg 5; have q6 := cell_heap hg 6; have q7 := cell_heap hg 7; have r0 := cell_heap hh 0; have r1 := cell_heap hh 1; have r2 := cell_heap hh 2; have r3 := cell_heap hh 3; have r4 := cell_heap hh 4; have r5 := cell_heap hh 5; have r6 := cell_heap hh 6; have r7 := cell_heap hh 7; clear hb)))
    go_ret
    exact ⟨rfl, hbel⟩
  by_cases c6 : 600 < v.size
  · have d6 : decide (600 < (v.size : Int)) = true := decide_eq_true (by omega)
    go_wp2_with (first | (go_at_call 28; refine (first5_any _).mono ?_; rintro e w0 ⟨rfl, hb⟩; have hg := cells_of hg hb hgl; have hh := cells_of hh hb hhl; have hgl := Nat.lt_of_lt_of_le hgl hb.size; have hhl := Nat.lt_of_lt_of_le hhl hb.size; have hW := hW.below hb; have hbel := hbel.trans (hb.mono hbel.size); have q0 := cell_heap hg 0; have q1 := cell_heap hg 1; have q2 := cell_heap hg 2; have q3 := cell_heap hg 3; have q4 := cell_heap hg 4; have q5 := cell_heap hg 5; have q6 := cell_heap hg 6; have q7 := cell_heap hg 7; have r0 := cell_heap hh 0; have r1 := cell_heap hh 1; have r2 := cell_heap hh 2; have r3 := cell_heap hh 3; have r4 := cell_heap hh 4; have r5 := cell_heap hh 5; have r6 := cell_heap hh 6; have r7 := cell_heap hh 7; clear hb) | (go_at_call 29; first | (with_reducible refine (CL1 _).mono ?_; rintro e w1 ⟨rfl, hb⟩; have hg := cells_of hg hb hgl; have hh := cells_of hh hb hhl; have hgl := Nat.lt_of_lt_of_le hgl hb.size; have hhl := Nat.lt_of_lt_of_le hhl hb.size; have hW := hW.below hb; have hbel := hbel.trans (hb.mono hbel.size); have q0 := cell_heap hg 0; have q1 := cell_heap hg 1; have q2 := cell_heap hg 2; have q3 := cell_heap hg 3; have q4 := cell_heap hg 4; have q5 := cell_heap hg 5; have q6 := cell_heap hg 6; have q7 := cell_heap hg 7; have r0 := cell_heap hh 0; have r1 := cell_heap hh 1; have r2 := cell_heap hh 2; have r3 := cell_heap hh 3; have r4 := cell_heap hh 4; have r5 := cell_heap hh 5; have r6 := cell_heap hh 6; have r7 := cell_heap hh 7; clear hb) | (with_reducible refine (CL2 _).mono ?_; rintro e w1 ⟨rfl, hb⟩; have hg := cells_of hg hb hgl; have hh := cells_of hh hb hhl; have hgl := Nat.lt_of_lt_of_le hgl hb.size; have hhl := Nat.lt_of_lt_of_le hhl hb.size; have hW := hW.below hb; have hbel := hbel.trans (hb.mono hbel.size); have q0 := cell_heap hg 0; have q1 := cell_heap hg 1; have q2 := cell_heap hg 2; have q3 := cell_heap hg 3; have q4 := cell_heap hg 4; have q5 := cell_heap hg 5; have q6 := cell_heap hg 6; have q7 := cell_heap hg 7; have r0 := cell_heap hh 0; have r1 := cell_heap hh 1; have r2 := cell_heap hh 2; have r3 := cell_heap hh 3; have r4 := cell_heap hh 4; have r5 := cell_heap hh 5; have r6 := cell_heap hh 6; have r7 := cell_heap hh 7; clear hb)))
    go_ret
    exact ⟨rfl, hbel⟩
  have d6 : decide (600 < (v.size : Int)) = false := decide_eq_false (by omega)
  have hda : da.size ≤ 600 := by
    unfold lightK at hl1
    simp only [Bool.and_eq_true, decide_eq_true_eq] at hl1
    exact hl1.2
  clear hl1 hl2
  go_upto_region 5 with (first | (go_at_call 28; refine (first5_any _).mono ?_; rintro e w0 ⟨rfl, hb⟩; have hg := cells_of hg hb hgl; have hh := cells_of hh hb hhl; have hgl := Nat.lt_of_lt_of_le hgl hb.size; have hhl := Nat.lt_of_lt_of_le hhl hb.size; have hW := hW.below hb; have hbel := hbel.trans (hb.mono hbel.size); have q0 := cell_heap hg 0; have q1 := cell_heap hg 1; have q2 := cell_heap hg 2; have q3 := cell_heap hg 3; have q4 := cell_heap hg 4; have q5 := cell_heap hg 5; have q6 := cell_heap hg 6; have q7 := cell_heap hg 7; have r0 := cell_heap hh 0; have r1 := cell_heap hh 1; have r2 := cell_heap hh 2; have r3 := cell_heap hh 3; have r4 := cell_heap hh 4; have r5 := cell_heap hh 5; have r6 := cell_heap hh 6; have r7 := cell_heap hh 7; clear hb) | (go_at_call 29; first | (with_reducible refine (CL1 _).mono ?_; rintro e w1 ⟨rfl, hb⟩; have hg := cells_of hg hb hgl; have hh := cells_of hh hb hhl; have hgl := Nat.lt_of_lt_of_le hgl hb.size; have hhl := Nat.lt_of_lt_of_le hhl hb.size; have hW := hW.below hb; have hbel := hbel.trans (hb.mono hbel.size); have q0 := cell_heap hg 0; have q1 := cell_heap hg 1; have q2 := cell_heap hg 2; have q3 := cell_heap hg 3; have q4 := cell_heap hg 4; have q5 := cell_heap hg 5; have q6 := cell_heap hg 6; have q7 := cell_heap hg 7; have r0 := cell_heap hh 0; have r1 := cell_heap hh 1; have r2 := cell_heap hh 2; have r3 := cell_heap hh 3; have r4 := cell_heap hh 4; have r5 := cell_heap hh 5; have r6 := cell_heap hh 6; have r7 := cell_heap hh 7; clear hb) | (with_reducible refine (CL2 _).mono ?_; rintro e w1 ⟨rfl, hb⟩; have hg := cells_of hg hb hgl; have hh := cells_of hh hb hhl; have hgl := Nat.lt_of_lt_of_le hgl hb.size; have hhl := Nat.lt_of_lt_of_le hhl hb.size; have hW := hW.below hb; have hbel := hbel.trans (hb.mono hbel.size); have q0 := cell_heap hg 0; have q1 := cell_heap hg 1; have q2 := cell_heap hg 2; have q3 := cell_heap hg 3; have q4 := cell_heap hg 4; have q5 := cell_heap hg 5; have q6 := cell_heap hg 6; have q7 := cell_heap hg 7; have r0 := cell_heap hh 0; have r1 := cell_heap hh 1; have r2 := cell_heap hh 2; have r3 := cell_heap hh 3; have r4 := cell_heap hh 4; have r5 := cell_heap hh 5; have r6 := cell_heap hh 6; have r7 := cell_heap hh 7; clear hb)))
  have CC := fun W h => commitB_any sp sc dp dc sq da th ta W h s1 s2
  have CM := fun W => mayPk_any sp sc dp dc sq da th ta W s1 s2
  have CMr := fun W => refMayPk_any sp sc dp dc sq da th ta W s1 s2
  have CO := fun W => over_any sp sc dp dc sq da th ta ht tm W
  have COr := fun W => refOver_any th ta ht tm W
  have CSm := fun W => pkSame_any sp sp2 sc sc2 dp dp2 dc dc2 sq sq2 da da2 th th2 ta ta2 W
  have hEp := run_equal_pk sp sp2 sc sc2 dp dp2 dc dc2 sq sq2 da da2 th th2 ta ta2
  have CEn := fun W => encodePk_any sp sc dp dc sq da th ta W s1 s2
  have CEr := fun W => refEncodePk_any sp sc dp dc sq da th ta W s1 s2
  have CD := fun W => decodePk_any v W (by omega)
  have CDr := fun W => refDecodePk_any v W (by omega)
  obtain ⟨ov, hov⟩ : ∃ b, overB th ta ht tm = b := ⟨_, rfl⟩
  simp only [hov] at CO COr
  obtain ⟨sm, hsm⟩ : ∃ b, pkEq ((sp, sc), (dp, dc), sq, da, th, ta) ((sp2, sc2), (dp2, dc2), sq2, da2, th2, ta2) = b := ⟨_, rfl⟩
  simp only [hsm] at CSm hEp
  obtain ⟨sb, eb, henc⟩ : ∃ sb eb, encPk ((sp, sc), (dp, dc), sq, da, th, ta) = .tuple #[.string sb, .int .i64 eb] := by
    unfold encPk
    cases mayT ((sp, sc), (dp, dc), sq, da, th, ta)
    · exact ⟨_, _, rfl⟩
    · exact ⟨_, _, rfl⟩
  simp only [henc] at CEn CEr
  obtain ⟨⟨⟨⟨spx, scx⟩, ⟨dpx, dcx⟩, sqx, dax, thx, tax⟩, ex⟩, hdx⟩ : ∃ t, decPk v = t := ⟨_, rfl⟩
  simp only [hdx, PkT.row] at CD CDr
  have hEx := run_equal_pk spx spx scx scx dpx dpx dcx dcx sqx sqx dax dax thx thx tax tax
  rw [pkEq_self] at hEx
  have hcl := comB_len sp sc dp dc sq da th ta
  have hcom : ∀ (h : mayK sp sc dp dc sq da th ta = true), comB sp sc dp dc sq da th ta = comF da th ta := fun h => by unfold comB; rw [h]; rfl
  have hcom0 : ∀ (h : mayK sp sc dp dc sq da th ta = false), comB sp sc dp dc sq da th ta = z32 := fun h => by unfold comB; rw [h]; rfl
  obtain ⟨mb, hmb⟩ : ∃ b, mayK sp sc dp dc sq da th ta = b := ⟨_, rfl⟩
  simp only [hmb] at CM CMr hcom hcom0
  obtain ⟨C, hC⟩ : ∃ C, comB sp sc dp dc sq da th ta = C := ⟨_, rfl⟩
  simp only [hC] at CC hcl hcom hcom0
  clear hov hsm henc hdx hmb hC
  have hcz : (hrow C).size = 32 := by rw [hrow_size]; exact hcl
  have hcone := hrow_one C
  clear CL1 CL2
  go_upto_region 6 with (first | (go_at_call 30; refine (CC _ hW).mono ?_; rintro e wc ⟨rfl, hb⟩; have hg := cells_of hg hb hgl; have hh := cells_of hh hb hhl; have hgl := Nat.lt_of_lt_of_le hgl hb.size; have hhl := Nat.lt_of_lt_of_le hhl hb.size; have hW := hW.below hb; have hbel := hbel.trans (hb.mono hbel.size); have q0 := cell_heap hg 0; have q1 := cell_heap hg 1; have q2 := cell_heap hg 2; have q3 := cell_heap hg 3; have q4 := cell_heap hg 4; have q5 := cell_heap hg 5; have q6 := cell_heap hg 6; have q7 := cell_heap hg 7; clear hb; have r0 := cell_heap hh 0; have r1 := cell_heap hh 1; have r2 := cell_heap hh 2; have r3 := cell_heap hh 3; have r4 := cell_heap hh 4; have r5 := cell_heap hh 5; have r6 := cell_heap hh 6; have r7 := cell_heap hh 7) | (refine wpList_storeRowTo rfl (.tmp 11) (.tmp 38) 26 rfl (by rw [hcz]; kernel_rfl) rfl (by rfl) (heap_push _ _ _) (by rw [hcz]; rfl) hcone ?_))
  refine wp_nameE _ (fun W6 hX => ?_)
  obtain ⟨gc, hgc⟩ : ∃ g, wc.heap.size = g := ⟨_, rfl⟩
  have hbX : Below gc wc W6 := by rw [hX, ← hgc]; exact below_setRow (Below.alloc (Below.refl _ _) (Nat.le_refl _) _) (Nat.le_refl _) _
  have hc : W6.heap[gc]? = some (.cells (hrow C) 26 (0, 0)) := by rw [hX, ← hgc]; exact setRow_heap _ _ _ _ _ _ (heap_push _ _ _)
  have hg := cells_of hg hbX (by omega)
  have hh := cells_of hh hbX (by omega)
  have hgcw : w.heap.size + 1 < gc := by omega
  have hW := hW.below (hbX.mono (by omega))
  have hbel := hbel.trans (hbX.mono (by have := hbel.size; omega))
  rw [hgc]
  clear hX hbX CC hgl hhl hgc
  have hgl : w.heap.size < W6.heap.size := (Array.getElem?_eq_some_iff.1 hg).1
  have hhl : w.heap.size + 1 < W6.heap.size := (Array.getElem?_eq_some_iff.1 hh).1
  have hcl6 : gc < W6.heap.size := (Array.getElem?_eq_some_iff.1 hc).1
  have q0 := cell_heap hg 0; have q1 := cell_heap hg 1; have q2 := cell_heap hg 2; have q3 := cell_heap hg 3; have q4 := cell_heap hg 4; have q5 := cell_heap hg 5; have q6 := cell_heap hg 6; have q7 := cell_heap hg 7
  have r0 := cell_heap hh 0; have r1 := cell_heap hh 1; have r2 := cell_heap hh 2; have r3 := cell_heap hh 3; have r4 := cell_heap hh 4; have r5 := cell_heap hh 5; have r6 := cell_heap hh 6; have r7 := cell_heap hh 7
  have hz32 : (hrow z32).size = 32 := rfl
  have hzone := hrow_one z32
  go_upto_region 7 with (refine wpList_storeRowTo (Z := hrow z32) rfl (.tmp 12) (.tmp 39) 26 rfl (by rw [hz32]; kernel_rfl) rfl (by rfl) (heap_push _ _ _) (by rw [hz32]; rfl) hzone ?_)
  refine wp_nameE _ (fun W7 hX => ?_)
  obtain ⟨gd, hgd⟩ : ∃ g, W6.heap.size = g := ⟨_, rfl⟩
  have hbX : Below gd W6 W7 := by rw [hX, ← hgd]; exact below_setRow (Below.alloc (Below.refl _ _) (Nat.le_refl _) _) (Nat.le_refl _) _
  have hd : W7.heap[gd]? = some (.cells (hrow z32) 26 (0, 0)) := by rw [hX, ← hgd]; exact setRow_heap _ _ _ _ _ _ (heap_push _ _ _)
  have hg := cells_of hg hbX (by omega)
  have hh := cells_of hh hbX (by omega)
  have hc := cells_of hc hbX (by omega)
  have hcd : gc < gd := by omega
  have hW := hW.below (hbX.mono (by omega))
  have hbel := hbel.trans (hbX.mono (by have := hbel.size; omega))
  rw [hgd]
  clear hX hbX hgl hhl hcl6 hgd
  have hgl : w.heap.size < W7.heap.size := (Array.getElem?_eq_some_iff.1 hg).1
  have hhl : w.heap.size + 1 < W7.heap.size := (Array.getElem?_eq_some_iff.1 hh).1
  have hcl7 : gc < W7.heap.size := (Array.getElem?_eq_some_iff.1 hc).1
  have hdl : gd < W7.heap.size := (Array.getElem?_eq_some_iff.1 hd).1
  have q0 := cell_heap hg 0; have q1 := cell_heap hg 1; have q2 := cell_heap hg 2; have q3 := cell_heap hg 3; have q4 := cell_heap hg 4; have q5 := cell_heap hg 5; have q6 := cell_heap hg 6; have q7 := cell_heap hg 7
  have r0 := cell_heap hh 0; have r1 := cell_heap hh 1; have r2 := cell_heap hh 2; have r3 := cell_heap hh 3; have r4 := cell_heap hh 4; have r5 := cell_heap hh 5; have r6 := cell_heap hh 6; have r7 := cell_heap hh 7
  have KEY : ∀ (W : World) (a : Act), W.heap[w.heap.size]? = some (.cells #[.string sp, .int .i64 sc, .string dp, .int .i64 dc, .int .i64 sq, .string da, .int .i64 th, .int .i64 ta] 45 (0, 0)) → W.heap[w.heap.size + 1]? = some (.cells #[.string sp2, .int .i64 sc2, .string dp2, .int .i64 dc2, .int .i64 sq2, .string da2, .int .i64 th2, .int .i64 ta2] 45 (0, 0)) → W.heap[gc]? = some (.cells (hrow C) 26 (0, 0)) → W.heap[gd]? = some (.cells (hrow C) 26 (0, 0)) → SW W → Below w.heap.size w W → True := fun _ _ _ _ _ _ _ _ => trivial
  clear KEY
  cases mb
  · have hz := hcom0 rfl
    have hd : W7.heap[gd]? = some (.cells (hrow C) 26 (0, 0)) := by rw [hz]; exact hd
    clear hz hcom hcom0
    go_upto_region 9 with (first | (go_at_call 31; refine (CMr _).mono ?_; rintro e wm ⟨rfl, hb⟩; have hg := cells_of hg hb hgl; have hh := cells_of hh hb hhl; have hc := cells_of hc hb hcl7; have hd := cells_of hd hb hdl; have hgl := Nat.lt_of_lt_of_le hgl hb.size; have hhl := Nat.lt_of_lt_of_le hhl hb.size; have hcl7 := Nat.lt_of_lt_of_le hcl7 hb.size; have hdl := Nat.lt_of_lt_of_le hdl hb.size; have hW := hW.below hb; have hbel := hbel.trans (hb.mono hbel.size); have q0 := cell_heap hg 0; have q1 := cell_heap hg 1; have q2 := cell_heap hg 2; have q3 := cell_heap hg 3; have q4 := cell_heap hg 4; have q5 := cell_heap hg 5; have q6 := cell_heap hg 6; have q7 := cell_heap hg 7; clear hb; have r0 := cell_heap hh 0; have r1 := cell_heap hh 1; have r2 := cell_heap hh 2; have r3 := cell_heap hh 3; have r4 := cell_heap hh 4; have r5 := cell_heap hh 5; have r6 := cell_heap hh 6; have r7 := cell_heap hh 7))
    go_upto_region 12 with (first | (go_at_call 33; refine (CEn _).mono ?_; rintro e we ⟨rfl, hb⟩; have hg := cells_of hg hb hgl; have hh := cells_of hh hb hhl; have hc := cells_of hc hb hcl7; have hd := cells_of hd hb hdl; have hgl := Nat.lt_of_lt_of_le hgl hb.size; have hhl := Nat.lt_of_lt_of_le hhl hb.size; have hcl7 := Nat.lt_of_lt_of_le hcl7 hb.size; have hdl := Nat.lt_of_lt_of_le hdl hb.size; have hW := hW.below hb; have hbel := hbel.trans (hb.mono hbel.size); have q0 := cell_heap hg 0; have q1 := cell_heap hg 1; have q2 := cell_heap hg 2; have q3 := cell_heap hg 3; have q4 := cell_heap hg 4; have q5 := cell_heap hg 5; have q6 := cell_heap hg 6; have q7 := cell_heap hg 7; clear hb; have r0 := cell_heap hh 0; have r1 := cell_heap hh 1; have r2 := cell_heap hh 2; have r3 := cell_heap hh 3; have r4 := cell_heap hh 4; have r5 := cell_heap hh 5; have r6 := cell_heap hh 6; have r7 := cell_heap hh 7) | (go_at_call 34; refine (CEr _).mono ?_; rintro e we ⟨rfl, hb⟩; have hg := cells_of hg hb hgl; have hh := cells_of hh hb hhl; have hc := cells_of hc hb hcl7; have hd := cells_of hd hb hdl; have hgl := Nat.lt_of_lt_of_le hgl hb.size; have hhl := Nat.lt_of_lt_of_le hhl hb.size; have hcl7 := Nat.lt_of_lt_of_le hcl7 hb.size; have hdl := Nat.lt_of_lt_of_le hdl hb.size; have hW := hW.below hb; have hbel := hbel.trans (hb.mono hbel.size); have q0 := cell_heap hg 0; have q1 := cell_heap hg 1; have q2 := cell_heap hg 2; have q3 := cell_heap hg 3; have q4 := cell_heap hg 4; have q5 := cell_heap hg 5; have q6 := cell_heap hg 6; have q7 := cell_heap hg 7; clear hb; have r0 := cell_heap hh 0; have r1 := cell_heap hh 1; have r2 := cell_heap hh 2; have r3 := cell_heap hh 3; have r4 := cell_heap hh 4; have r5 := cell_heap hh 5; have r6 := cell_heap hh 6; have r7 := cell_heap hh 7) | (go_at_call 35; refine (CD _).mono ?_; rintro e wx ⟨rfl, hb⟩; have hg := cells_of hg hb hgl; have hh := cells_of hh hb hhl; have hc := cells_of hc hb hcl7; have hd := cells_of hd hb hdl; have hgl := Nat.lt_of_lt_of_le hgl hb.size; have hhl := Nat.lt_of_lt_of_le hhl hb.size; have hcl7 := Nat.lt_of_lt_of_le hcl7 hb.size; have hdl := Nat.lt_of_lt_of_le hdl hb.size; have hW := hW.below hb; have hbel := hbel.trans (hb.mono hbel.size); have q0 := cell_heap hg 0; have q1 := cell_heap hg 1; have q2 := cell_heap hg 2; have q3 := cell_heap hg 3; have q4 := cell_heap hg 4; have q5 := cell_heap hg 5; have q6 := cell_heap hg 6; have q7 := cell_heap hg 7; clear hb; have r0 := cell_heap hh 0; have r1 := cell_heap hh 1; have r2 := cell_heap hh 2; have r3 := cell_heap hh 3; have r4 := cell_heap hh 4; have r5 := cell_heap hh 5; have r6 := cell_heap hh 6; have r7 := cell_heap hh 7) | (refine wpList_storeRowTo rfl (.tmp 17) (.tmp 68) 45 rfl (by kernel_rfl) rfl (by rfl) (heap_push _ _ _) rfl (Pk.row_one8 _ _ _ _ _ _ _ _) ?_))
    refine wp_nameE _ (fun WX hX => ?_)
    obtain ⟨gx, hgx⟩ : ∃ g, wx.heap.size = g := ⟨_, rfl⟩
    have hbX : Below gx wx WX := by rw [hX, ← hgx]; first | exact below_setRow (Below.alloc (Below.refl _ _) (Nat.le_refl _) _) (Nat.le_refl _) _ | exact Below.alloc (Below.refl _ _) (Nat.le_refl _) _
    have hx : WX.heap[gx]? = some (.cells #[.string spx, .int .i64 scx, .string dpx, .int .i64 dcx, .int .i64 sqx, .string dax, .int .i64 thx, .int .i64 tax] 45 (0, 0)) := by rw [hX, ← hgx]; first | exact setRow_heap _ _ _ _ _ _ (heap_push _ _ _) | exact heap_push _ _ _
    have hg := cells_of hg hbX (by omega)
    have hh := cells_of hh hbX (by omega)
    have hc := cells_of hc hbX (by omega)
    have hd := cells_of hd hbX (by omega)
    have hW := hW.below (hbX.mono (by omega))
    have hbel := hbel.trans (hbX.mono (by have := hbel.size; omega))
    rw [hgx]
    clear hX hbX hgl hhl hcl7 hdl hgx CEn CEr CD
    have hgl : w.heap.size < WX.heap.size := (Array.getElem?_eq_some_iff.1 hg).1
    have hhl : w.heap.size + 1 < WX.heap.size := (Array.getElem?_eq_some_iff.1 hh).1
    have hcl7 : gc < WX.heap.size := (Array.getElem?_eq_some_iff.1 hc).1
    have hdl : gd < WX.heap.size := (Array.getElem?_eq_some_iff.1 hd).1
    have hxl : gx < WX.heap.size := (Array.getElem?_eq_some_iff.1 hx).1
    have q0 := cell_heap hg 0; have q1 := cell_heap hg 1; have q2 := cell_heap hg 2; have q3 := cell_heap hg 3; have q4 := cell_heap hg 4; have q5 := cell_heap hg 5; have q6 := cell_heap hg 6; have q7 := cell_heap hg 7
    have r0 := cell_heap hh 0; have r1 := cell_heap hh 1; have r2 := cell_heap hh 2; have r3 := cell_heap hh 3; have r4 := cell_heap hh 4; have r5 := cell_heap hh 5; have r6 := cell_heap hh 6; have r7 := cell_heap hh 7
    go_upto_region 13 with (first | (go_at_call 36; refine (CDr _).mono ?_; rintro e wy ⟨rfl, hb⟩; have hg := cells_of hg hb hgl; have hh := cells_of hh hb hhl; have hc := cells_of hc hb hcl7; have hd := cells_of hd hb hdl; have hx := cells_of hx hb hxl; have hgl := Nat.lt_of_lt_of_le hgl hb.size; have hhl := Nat.lt_of_lt_of_le hhl hb.size; have hcl7 := Nat.lt_of_lt_of_le hcl7 hb.size; have hdl := Nat.lt_of_lt_of_le hdl hb.size; have hxl := Nat.lt_of_lt_of_le hxl hb.size; have hW := hW.below hb; have hbel := hbel.trans (hb.mono hbel.size); have q0 := cell_heap hg 0; have q1 := cell_heap hg 1; have q2 := cell_heap hg 2; have q3 := cell_heap hg 3; have q4 := cell_heap hg 4; have q5 := cell_heap hg 5; have q6 := cell_heap hg 6; have q7 := cell_heap hg 7; clear hb; have r0 := cell_heap hh 0; have r1 := cell_heap hh 1; have r2 := cell_heap hh 2; have r3 := cell_heap hh 3; have r4 := cell_heap hh 4; have r5 := cell_heap hh 5; have r6 := cell_heap hh 6; have r7 := cell_heap hh 7) | (refine wpList_storeRowTo rfl (.tmp 19) (.tmp 73) 45 rfl (by kernel_rfl) rfl (by rfl) (heap_push _ _ _) rfl (Pk.row_one8 _ _ _ _ _ _ _ _) ?_))
    refine wp_nameE _ (fun WY hX => ?_)
    obtain ⟨gy, hgy⟩ : ∃ g, wy.heap.size = g := ⟨_, rfl⟩
    have hbX : Below gy wy WY := by rw [hX, ← hgy]; first | exact below_setRow (Below.alloc (Below.refl _ _) (Nat.le_refl _) _) (Nat.le_refl _) _ | exact Below.alloc (Below.refl _ _) (Nat.le_refl _) _
    have hy : WY.heap[gy]? = some (.cells #[.string spx, .int .i64 scx, .string dpx, .int .i64 dcx, .int .i64 sqx, .string dax, .int .i64 thx, .int .i64 tax] 45 (0, 0)) := by rw [hX, ← hgy]; first | exact setRow_heap _ _ _ _ _ _ (heap_push _ _ _) | exact heap_push _ _ _
    have hg := cells_of hg hbX (by omega)
    have hh := cells_of hh hbX (by omega)
    have hc := cells_of hc hbX (by omega)
    have hd := cells_of hd hbX (by omega)
    have hx := cells_of hx hbX (by omega)
    have hbel := hbel.trans (hbX.mono (by have := hbel.size; omega))
    rw [hgy]
    clear hX hbX hgl hhl hcl7 hdl hxl hgy CDr
    have hgl : w.heap.size < WY.heap.size := (Array.getElem?_eq_some_iff.1 hg).1
    have hhl : w.heap.size + 1 < WY.heap.size := (Array.getElem?_eq_some_iff.1 hh).1
    have hxl : gx < WY.heap.size := (Array.getElem?_eq_some_iff.1 hx).1
    have hyl : gy < WY.heap.size := (Array.getElem?_eq_some_iff.1 hy).1
    have lc := fun n => load_hash hc hcl n
    have ld := fun n => load_hash hd hcl n
    have q0 := cell_heap hg 0; have q1 := cell_heap hg 1; have q2 := cell_heap hg 2; have q3 := cell_heap hg 3; have q4 := cell_heap hg 4; have q5 := cell_heap hg 5; have q6 := cell_heap hg 6; have q7 := cell_heap hg 7
    have r0 := cell_heap hh 0; have r1 := cell_heap hh 1; have r2 := cell_heap hh 2; have r3 := cell_heap hh 3; have r4 := cell_heap hh 4; have r5 := cell_heap hh 5; have r6 := cell_heap hh 6; have r7 := cell_heap hh 7
    have x0 := cell_heap hx 0; have x1 := cell_heap hx 1; have x2 := cell_heap hx 2; have x3 := cell_heap hx 3; have x4 := cell_heap hx 4; have x5 := cell_heap hx 5; have x6 := cell_heap hx 6; have x7 := cell_heap hx 7
    have y0 := cell_heap hy 0; have y1 := cell_heap hy 1; have y2 := cell_heap hy 2; have y3 := cell_heap hy 3; have y4 := cell_heap hy 4; have y5 := cell_heap hy 5; have y6 := cell_heap hy 6; have y7 := cell_heap hy 7
    have hEC : ∀ V : World, (Op.equalIn 10000 26 (.agg (hrow C)) (.agg (hrow C))).run Tryd.prog V = .ok true V := fun V => by
      rw [run_equal_hash V 26 C C hcl hcl Tryd.underlying26 Tryd.underlying5 (by kernel_rfl)]; simp
    clear hg hh hx hy hc hd
    obtain ⟨hcb, hfb⟩ := beyond_cells (W := WY)
    refine wp_region_below (by kernel_rfl) (by kernel_rfl) ?_
    repeat (first | (go_big_quiet_want; refine quiet_load (v := .agg (hrow C)) 26 (.tmp 11) rfl (by rfl) (by rintro _ ⟨n, rfl⟩; exact lc n) ?_; simp only [Act.put, List.setIfInBounds_toArray, List.set_cons_succ, List.set_cons_zero]; go_big_quiet_on) | (go_big_quiet_want; refine quiet_load (v := .agg (hrow C)) 26 (.tmp 12) rfl (by rfl) (by rintro _ ⟨n, rfl⟩; exact ld n) ?_; simp only [Act.put, List.setIfInBounds_toArray, List.set_cons_succ, List.set_cons_zero]; go_big_quiet_on) | (go_big_quiet_step (first | (go_at_call 37; exact quiet_below (CM _)) | (go_at_call 31; exact quiet_below (CMr _)) | (go_at_call 38; exact quiet_below (CO _)) | (go_at_call 39; exact quiet_below (COr _)) | (go_at_call 40; exact quiet_below (CSm _)))))
    intro w9 hw9
    have hb9 := beyond_below hw9
    clear hcb hfb
    go_wp2
    go_ret
    exact ⟨rfl, hbel.trans (hb9.mono hbel.size)⟩
  · have hz := hcom rfl
    go_upto_region 8 with (first | (go_at_call 31; refine (CMr _).mono ?_; rintro e wm ⟨rfl, hb⟩; have hg := cells_of hg hb hgl; have hh := cells_of hh hb hhl; have hc := cells_of hc hb hcl7; have hd := cells_of hd hb hdl; have hgl := Nat.lt_of_lt_of_le hgl hb.size; have hhl := Nat.lt_of_lt_of_le hhl hb.size; have hcl7 := Nat.lt_of_lt_of_le hcl7 hb.size; have hdl := Nat.lt_of_lt_of_le hdl hb.size; have hW := hW.below hb; have hbel := hbel.trans (hb.mono hbel.size); have q0 := cell_heap hg 0; have q1 := cell_heap hg 1; have q2 := cell_heap hg 2; have q3 := cell_heap hg 3; have q4 := cell_heap hg 4; have q5 := cell_heap hg 5; have q6 := cell_heap hg 6; have q7 := cell_heap hg 7; clear hb; have r0 := cell_heap hh 0; have r1 := cell_heap hh 1; have r2 := cell_heap hh 2; have r3 := cell_heap hh 3; have r4 := cell_heap hh 4; have r5 := cell_heap hh 5; have r6 := cell_heap hh 6; have r7 := cell_heap hh 7))
    obtain ⟨Q1, hQ1⟩ : ∃ Q, shaF da.data.toList = Q := ⟨_, rfl⟩
    have hQl : Q1.length = 32 := by rw [← hQ1]; exact shaF_len _
    obtain ⟨E1, hE1⟩ : ∃ E : ByteArray, (⟨(eightL th).toArray⟩ : ByteArray) = E := ⟨_, rfl⟩
    obtain ⟨E2, hE2⟩ : ∃ E : ByteArray, (⟨(eightL ta).toArray⟩ : ByteArray) = E := ⟨_, rfl⟩
    obtain ⟨X1, hX1⟩ : ∃ E : ByteArray, (⟨Q1.toArray⟩ : ByteArray) = E := ⟨_, rfl⟩
    have z1 : E1.size ≤ 8 := by rw [← hE1]; exact eightL_le th
    have z2 : E2.size ≤ 8 := by rw [← hE2]; exact eightL_le ta
    have z3 : X1.size = 32 := by rw [← hX1]; exact hQl
    have CE1 := fun W => refEight_any th W
    have CE2 := fun W => refEight_any ta W
    unfold strV at CE1 CE2
    simp only [hE1] at CE1
    simp only [hE2] at CE2
    have CS1 := fun W => refSum_any da W (by omega)
    simp only [hQ1] at CS1
    have CT1 := fun W : World => refText_any W Q1 hQl
    simp only [hX1] at CT1
    have hcat : ((E1 ++ E2) ++ X1).data.toList = flat [⟨(eightL th).toArray⟩, ⟨(eightL ta).toArray⟩, ⟨(shaF da.data.toList).toArray⟩] := by
      rw [← hE1, ← hE2, ← hX1, hQ1]; simp [flat]
    have CS2 := fun W => refSum_any ((E1 ++ E2) ++ X1) W (by rw [ByteArray.size_append, ByteArray.size_append]; omega)
    simp only [hcat, show shaF (flat [⟨(eightL th).toArray⟩, ⟨(eightL ta).toArray⟩, ⟨(shaF da.data.toList).toArray⟩]) = C from hz.symm] at CS2
    have hc1 : ¬ 9223372036854775807 < E1.size + E2.size := by omega
    have hc2 : ¬ 9223372036854775807 < E1.size + E2.size + X1.size := by omega
    have hc3 : ¬ 9223372036854775807 < (E1 ++ E2).size + X1.size := by rw [ByteArray.size_append]; omega
    clear hQ1 hE1 hE2 hX1 hcat hz hcom hcom0
    refine wp_region_facts_tail 13 rfl [Fact.eq (.pointer (some ⟨w.heap.size, 6, none⟩)), Fact.eq (.int .i64 th), Fact.eq (.string E1), Fact.eq (.pointer (some ⟨w.heap.size, 7, none⟩)), Fact.eq (.int .i64 ta), Fact.eq (.string E2), Fact.eq (.string (E1 ++ E2)), Fact.eq (.pointer (some ⟨w.heap.size, 5, none⟩)), Fact.eq (.string da), Fact.eq (.agg (hrow Q1)), Fact.eq (.string X1), Fact.eq (.string ((E1 ++ E2) ++ X1)), Fact.eq (.agg (hrow C))] (by kernel_rfl) (by kernel_rfl) (by kernel_rfl) (by kernel_rfl) (by kernel_rfl) (fun x => by simp only [List.take_succ_cons, List.take_zero, fillFrom, Act.put, List.setIfInBounds_toArray, List.set_cons_succ, List.set_cons_zero]; rfl) ?_ ?_
    · refine ⟨?_, ?_, ?_, ?_, ?_, ?_, ?_, ?_, ?_, ?_, ?_, ?_, ?_, trivial⟩
      · intro x w' hbw hd
        clear hd
        go_wp2_with fail
        exact frPost_mk rfl (by repeat (first | assumption | exact Below.refl _ _ | refine bch ?_ (by assumption) | refine Below.alloc ?_ (by simp) _)) rfl
      · intro x w' hbw hd
        have d0 : x 0 = .pointer (some ⟨w.heap.size, 6, none⟩) := hd 0 rfl
        clear hd
        have hgc := cells_of hg hbw hgl
        have q0 := cell_heap hgc 0; have q1 := cell_heap hgc 1; have q2 := cell_heap hgc 2; have q3 := cell_heap hgc 3; have q4 := cell_heap hgc 4; have q5 := cell_heap hgc 5; have q6 := cell_heap hgc 6; have q7 := cell_heap hgc 7
        go_wp2_with fail
        exact frPost_mk rfl (by repeat (first | assumption | exact Below.refl _ _ | refine bch ?_ (by assumption) | refine Below.alloc ?_ (by simp) _)) rfl
      · intro x w' hbw hd
        have d1 : x 1 = .int .i64 th := hd 1 rfl
        clear hd
        have CC := CE1 w'
        go_wp2_with (first | (go_at_call 32; refine CC.mono ?_; rintro e wx ⟨rfl, hbx⟩))
        exact frPost_mk rfl (by repeat (first | assumption | exact Below.refl _ _ | refine bch ?_ (by assumption) | refine Below.alloc ?_ (by simp) _)) rfl
      · intro x w' hbw hd
        clear hd
        go_wp2_with fail
        exact frPost_mk rfl (by repeat (first | assumption | exact Below.refl _ _ | refine bch ?_ (by assumption) | refine Below.alloc ?_ (by simp) _)) rfl
      · intro x w' hbw hd
        have d3 : x 3 = .pointer (some ⟨w.heap.size, 7, none⟩) := hd 3 rfl
        clear hd
        have hgc := cells_of hg hbw hgl
        have q0 := cell_heap hgc 0; have q1 := cell_heap hgc 1; have q2 := cell_heap hgc 2; have q3 := cell_heap hgc 3; have q4 := cell_heap hgc 4; have q5 := cell_heap hgc 5; have q6 := cell_heap hgc 6; have q7 := cell_heap hgc 7
        go_wp2_with fail
        exact frPost_mk rfl (by repeat (first | assumption | exact Below.refl _ _ | refine bch ?_ (by assumption) | refine Below.alloc ?_ (by simp) _)) rfl
      · intro x w' hbw hd
        have d4 : x 4 = .int .i64 ta := hd 4 rfl
        clear hd
        have CC := CE2 w'
        go_wp2_with (first | (go_at_call 32; refine CC.mono ?_; rintro e wx ⟨rfl, hbx⟩))
        exact frPost_mk rfl (by repeat (first | assumption | exact Below.refl _ _ | refine bch ?_ (by assumption) | refine Below.alloc ?_ (by simp) _)) rfl
      · intro x w' hbw hd
        have d2 : x 2 = .string E1 := hd 2 rfl
        have d5 : x 5 = .string E2 := hd 5 rfl
        clear hd
        go_wp2_with fail
        exact frPost_mk rfl (by repeat (first | assumption | exact Below.refl _ _ | refine bch ?_ (by assumption) | refine Below.alloc ?_ (by simp) _)) rfl
      · intro x w' hbw hd
        clear hd
        go_wp2_with fail
        exact frPost_mk rfl (by repeat (first | assumption | exact Below.refl _ _ | refine bch ?_ (by assumption) | refine Below.alloc ?_ (by simp) _)) rfl
      · intro x w' hbw hd
        have d7 : x 7 = .pointer (some ⟨w.heap.size, 5, none⟩) := hd 7 rfl
        clear hd
        have hgc := cells_of hg hbw hgl
        have q0 := cell_heap hgc 0; have q1 := cell_heap hgc 1; have q2 := cell_heap hgc 2; have q3 := cell_heap hgc 3; have q4 := cell_heap hgc 4; have q5 := cell_heap hgc 5; have q6 := cell_heap hgc 6; have q7 := cell_heap hgc 7
        go_wp2_with fail
        exact frPost_mk rfl (by repeat (first | assumption | exact Below.refl _ _ | refine bch ?_ (by assumption) | refine Below.alloc ?_ (by simp) _)) rfl
      · intro x w' hbw hd
        have d8 : x 8 = .string da := hd 8 rfl
        clear hd
        have CC := CS1 w'
        go_wp2_with (first | (go_at_call 18; refine CC.mono ?_; rintro e wx ⟨rfl, hbx⟩))
        exact frPost_mk rfl (by repeat (first | assumption | exact Below.refl _ _ | refine bch ?_ (by assumption) | refine Below.alloc ?_ (by simp) _)) rfl
      · intro x w' hbw hd
        have d9 : x 9 = .agg (hrow Q1) := hd 9 rfl
        clear hd
        have CC := CT1 w'
        go_wp2_with (first | (go_at_call 21; refine CC.mono ?_; rintro e wx ⟨rfl, hbx⟩))
        exact frPost_mk rfl (by repeat (first | assumption | exact Below.refl _ _ | refine bch ?_ (by assumption) | refine Below.alloc ?_ (by simp) _)) rfl
      · intro x w' hbw hd
        have d6 : x 6 = .string (E1 ++ E2) := hd 6 rfl
        have d10 : x 10 = .string X1 := hd 10 rfl
        clear hd
        go_wp2_with fail
        exact frPost_mk rfl (by repeat (first | assumption | exact Below.refl _ _ | refine bch ?_ (by assumption) | refine Below.alloc ?_ (by simp) _)) rfl
      · intro x w' hbw hd
        have d11 : x 11 = .string ((E1 ++ E2) ++ X1) := hd 11 rfl
        clear hd
        have CC := CS2 w'
        go_wp2_with (first | (go_at_call 18; refine CC.mono ?_; rintro e wx ⟨rfl, hbx⟩))
        exact frPost_mk rfl (by repeat (first | assumption | exact Below.refl _ _ | refine bch ?_ (by assumption) | refine Below.alloc ?_ (by simp) _)) rfl
    · intro x w' hbw hall
      have hf : x 12 = .agg (hrow C) := hall 12 (by decide)
      clear hall
      simp only [hf, List.drop_succ_cons, List.drop_zero]
      have hg := cells_of hg hbw hgl
      have hh := cells_of hh hbw hhl
      have hc := cells_of hc hbw hcl7
      have hd := cells_of hd hbw hdl
      have hW := hW.below hbw
      have hbel := hbel.trans (hbw.mono hbel.size)
      go_upto_region 9 with (refine wpList_storeRowTo rfl (.tmp 12) (.tmp 54) 26 rfl (by rw [hcz]; kernel_rfl) rfl rfl hd (by rw [hcz]; rfl) hcone ?_)
      refine wp_nameE _ (fun W8 hX => ?_)
      have hgl8 : w.heap.size < w'.heap.size := (Array.getElem?_eq_some_iff.1 hg).1
      have hd : W8.heap[gd]? = some (.cells (hrow C) 26 (0, 0)) := by rw [hX]; exact setRow_heap _ _ _ _ _ _ hd
      have hg : W8.heap[w.heap.size]? = some (.cells #[.string sp, .int .i64 sc, .string dp, .int .i64 dc, .int .i64 sq, .string da, .int .i64 th, .int .i64 ta] 45 (0, 0)) := by rw [hX, setRow_other _ _ _ _ (by omega)]; exact hg
      have hh : W8.heap[w.heap.size + 1]? = some (.cells #[.string sp2, .int .i64 sc2, .string dp2, .int .i64 dc2, .int .i64 sq2, .string da2, .int .i64 th2, .int .i64 ta2] 45 (0, 0)) := by rw [hX, setRow_other _ _ _ _ (by omega)]; exact hh
      have hc : W8.heap[gc]? = some (.cells (hrow C) 26 (0, 0)) := by rw [hX, setRow_other _ _ _ _ (by omega)]; exact hc
      have hbel : Below w.heap.size w W8 := by rw [hX]; exact below_setRow hbel (by omega) _
      have hW : SW W8 := by rw [hX]; exact hW.of_blocks (setRow_other _ _ _ _ (by have := hW0.size; omega)) (setRow_other _ _ _ _ (by have := hW0.size; omega))
      clear hX hgl hhl hcl7 hdl hgl8
      have hgl : w.heap.size < W8.heap.size := (Array.getElem?_eq_some_iff.1 hg).1
      have hhl : w.heap.size + 1 < W8.heap.size := (Array.getElem?_eq_some_iff.1 hh).1
      have hcl7 : gc < W8.heap.size := (Array.getElem?_eq_some_iff.1 hc).1
      have hdl : gd < W8.heap.size := (Array.getElem?_eq_some_iff.1 hd).1
      have q0 := cell_heap hg 0; have q1 := cell_heap hg 1; have q2 := cell_heap hg 2; have q3 := cell_heap hg 3; have q4 := cell_heap hg 4; have q5 := cell_heap hg 5; have q6 := cell_heap hg 6; have q7 := cell_heap hg 7
      have r0 := cell_heap hh 0; have r1 := cell_heap hh 1; have r2 := cell_heap hh 2; have r3 := cell_heap hh 3; have r4 := cell_heap hh 4; have r5 := cell_heap hh 5; have r6 := cell_heap hh 6; have r7 := cell_heap hh 7
      go_upto_region 12 with (first | (go_at_call 33; refine (CEn _).mono ?_; rintro e we ⟨rfl, hb⟩; have hg := cells_of hg hb hgl; have hh := cells_of hh hb hhl; have hc := cells_of hc hb hcl7; have hd := cells_of hd hb hdl; have hgl := Nat.lt_of_lt_of_le hgl hb.size; have hhl := Nat.lt_of_lt_of_le hhl hb.size; have hcl7 := Nat.lt_of_lt_of_le hcl7 hb.size; have hdl := Nat.lt_of_lt_of_le hdl hb.size; have hW := hW.below hb; have hbel := hbel.trans (hb.mono hbel.size); have q0 := cell_heap hg 0; have q1 := cell_heap hg 1; have q2 := cell_heap hg 2; have q3 := cell_heap hg 3; have q4 := cell_heap hg 4; have q5 := cell_heap hg 5; have q6 := cell_heap hg 6; have q7 := cell_heap hg 7; clear hb; have r0 := cell_heap hh 0; have r1 := cell_heap hh 1; have r2 := cell_heap hh 2; have r3 := cell_heap hh 3; have r4 := cell_heap hh 4; have r5 := cell_heap hh 5; have r6 := cell_heap hh 6; have r7 := cell_heap hh 7) | (go_at_call 34; refine (CEr _).mono ?_; rintro e we ⟨rfl, hb⟩; have hg := cells_of hg hb hgl; have hh := cells_of hh hb hhl; have hc := cells_of hc hb hcl7; have hd := cells_of hd hb hdl; have hgl := Nat.lt_of_lt_of_le hgl hb.size; have hhl := Nat.lt_of_lt_of_le hhl hb.size; have hcl7 := Nat.lt_of_lt_of_le hcl7 hb.size; have hdl := Nat.lt_of_lt_of_le hdl hb.size; have hW := hW.below hb; have hbel := hbel.trans (hb.mono hbel.size); have q0 := cell_heap hg 0; have q1 := cell_heap hg 1; have q2 := cell_heap hg 2; have q3 := cell_heap hg 3; have q4 := cell_heap hg 4; have q5 := cell_heap hg 5; have q6 := cell_heap hg 6; have q7 := cell_heap hg 7; clear hb; have r0 := cell_heap hh 0; have r1 := cell_heap hh 1; have r2 := cell_heap hh 2; have r3 := cell_heap hh 3; have r4 := cell_heap hh 4; have r5 := cell_heap hh 5; have r6 := cell_heap hh 6; have r7 := cell_heap hh 7) | (go_at_call 35; refine (CD _).mono ?_; rintro e wx ⟨rfl, hb⟩; have hg := cells_of hg hb hgl; have hh := cells_of hh hb hhl; have hc := cells_of hc hb hcl7; have hd := cells_of hd hb hdl; have hgl := Nat.lt_of_lt_of_le hgl hb.size; have hhl := Nat.lt_of_lt_of_le hhl hb.size; have hcl7 := Nat.lt_of_lt_of_le hcl7 hb.size; have hdl := Nat.lt_of_lt_of_le hdl hb.size; have hW := hW.below hb; have hbel := hbel.trans (hb.mono hbel.size); have q0 := cell_heap hg 0; have q1 := cell_heap hg 1; have q2 := cell_heap hg 2; have q3 := cell_heap hg 3; have q4 := cell_heap hg 4; have q5 := cell_heap hg 5; have q6 := cell_heap hg 6; have q7 := cell_heap hg 7; clear hb; have r0 := cell_heap hh 0; have r1 := cell_heap hh 1; have r2 := cell_heap hh 2; have r3 := cell_heap hh 3; have r4 := cell_heap hh 4; have r5 := cell_heap hh 5; have r6 := cell_heap hh 6; have r7 := cell_heap hh 7) | (refine wpList_storeRowTo rfl (.tmp 17) (.tmp 68) 45 rfl (by kernel_rfl) rfl (by rfl) (heap_push _ _ _) rfl (Pk.row_one8 _ _ _ _ _ _ _ _) ?_))
      refine wp_nameE _ (fun WX hX => ?_)
      obtain ⟨gx, hgx⟩ : ∃ g, wx.heap.size = g := ⟨_, rfl⟩
      have hbX : Below gx wx WX := by rw [hX, ← hgx]; first | exact below_setRow (Below.alloc (Below.refl _ _) (Nat.le_refl _) _) (Nat.le_refl _) _ | exact Below.alloc (Below.refl _ _) (Nat.le_refl _) _
      have hx : WX.heap[gx]? = some (.cells #[.string spx, .int .i64 scx, .string dpx, .int .i64 dcx, .int .i64 sqx, .string dax, .int .i64 thx, .int .i64 tax] 45 (0, 0)) := by rw [hX, ← hgx]; first | exact setRow_heap _ _ _ _ _ _ (heap_push _ _ _) | exact heap_push _ _ _
      have hg := cells_of hg hbX (by omega)
      have hh := cells_of hh hbX (by omega)
      have hc := cells_of hc hbX (by omega)
      have hd := cells_of hd hbX (by omega)
      have hW := hW.below (hbX.mono (by omega))
      have hbel := hbel.trans (hbX.mono (by have := hbel.size; omega))
      rw [hgx]
      clear hX hbX hgl hhl hcl7 hdl hgx CEn CEr CD
      have hgl : w.heap.size < WX.heap.size := (Array.getElem?_eq_some_iff.1 hg).1
      have hhl : w.heap.size + 1 < WX.heap.size := (Array.getElem?_eq_some_iff.1 hh).1
      have hcl7 : gc < WX.heap.size := (Array.getElem?_eq_some_iff.1 hc).1
      have hdl : gd < WX.heap.size := (Array.getElem?_eq_some_iff.1 hd).1
      have hxl : gx < WX.heap.size := (Array.getElem?_eq_some_iff.1 hx).1
      have q0 := cell_heap hg 0; have q1 := cell_heap hg 1; have q2 := cell_heap hg 2; have q3 := cell_heap hg 3; have q4 := cell_heap hg 4; have q5 := cell_heap hg 5; have q6 := cell_heap hg 6; have q7 := cell_heap hg 7
      have r0 := cell_heap hh 0; have r1 := cell_heap hh 1; have r2 := cell_heap hh 2; have r3 := cell_heap hh 3; have r4 := cell_heap hh 4; have r5 := cell_heap hh 5; have r6 := cell_heap hh 6; have r7 := cell_heap hh 7
      go_upto_region 13 with (first | (go_at_call 36; refine (CDr _).mono ?_; rintro e wy ⟨rfl, hb⟩; have hg := cells_of hg hb hgl; have hh := cells_of hh hb hhl; have hc := cells_of hc hb hcl7; have hd := cells_of hd hb hdl; have hx := cells_of hx hb hxl; have hgl := Nat.lt_of_lt_of_le hgl hb.size; have hhl := Nat.lt_of_lt_of_le hhl hb.size; have hcl7 := Nat.lt_of_lt_of_le hcl7 hb.size; have hdl := Nat.lt_of_lt_of_le hdl hb.size; have hxl := Nat.lt_of_lt_of_le hxl hb.size; have hW := hW.below hb; have hbel := hbel.trans (hb.mono hbel.size); have q0 := cell_heap hg 0; have q1 := cell_heap hg 1; have q2 := cell_heap hg 2; have q3 := cell_heap hg 3; have q4 := cell_heap hg 4; have q5 := cell_heap hg 5; have q6 := cell_heap hg 6; have q7 := cell_heap hg 7; clear hb; have r0 := cell_heap hh 0; have r1 := cell_heap hh 1; have r2 := cell_heap hh 2; have r3 := cell_heap hh 3; have r4 := cell_heap hh 4; have r5 := cell_heap hh 5; have r6 := cell_heap hh 6; have r7 := cell_heap hh 7) | (refine wpList_storeRowTo rfl (.tmp 19) (.tmp 73) 45 rfl (by kernel_rfl) rfl (by rfl) (heap_push _ _ _) rfl (Pk.row_one8 _ _ _ _ _ _ _ _) ?_))
      refine wp_nameE _ (fun WY hX => ?_)
      obtain ⟨gy, hgy⟩ : ∃ g, wy.heap.size = g := ⟨_, rfl⟩
      have hbX : Below gy wy WY := by rw [hX, ← hgy]; first | exact below_setRow (Below.alloc (Below.refl _ _) (Nat.le_refl _) _) (Nat.le_refl _) _ | exact Below.alloc (Below.refl _ _) (Nat.le_refl _) _
      have hy : WY.heap[gy]? = some (.cells #[.string spx, .int .i64 scx, .string dpx, .int .i64 dcx, .int .i64 sqx, .string dax, .int .i64 thx, .int .i64 tax] 45 (0, 0)) := by rw [hX, ← hgy]; first | exact setRow_heap _ _ _ _ _ _ (heap_push _ _ _) | exact heap_push _ _ _
      have hg := cells_of hg hbX (by omega)
      have hh := cells_of hh hbX (by omega)
      have hc := cells_of hc hbX (by omega)
      have hd := cells_of hd hbX (by omega)
      have hx := cells_of hx hbX (by omega)
      have hbel := hbel.trans (hbX.mono (by have := hbel.size; omega))
      rw [hgy]
      clear hX hbX hgl hhl hcl7 hdl hxl hgy CDr
      have hgl : w.heap.size < WY.heap.size := (Array.getElem?_eq_some_iff.1 hg).1
      have hhl : w.heap.size + 1 < WY.heap.size := (Array.getElem?_eq_some_iff.1 hh).1
      have hxl : gx < WY.heap.size := (Array.getElem?_eq_some_iff.1 hx).1
      have hyl : gy < WY.heap.size := (Array.getElem?_eq_some_iff.1 hy).1
      have lc := fun n => load_hash hc hcl n
      have ld := fun n => load_hash hd hcl n
      have q0 := cell_heap hg 0; have q1 := cell_heap hg 1; have q2 := cell_heap hg 2; have q3 := cell_heap hg 3; have q4 := cell_heap hg 4; have q5 := cell_heap hg 5; have q6 := cell_heap hg 6; have q7 := cell_heap hg 7
      have r0 := cell_heap hh 0; have r1 := cell_heap hh 1; have r2 := cell_heap hh 2; have r3 := cell_heap hh 3; have r4 := cell_heap hh 4; have r5 := cell_heap hh 5; have r6 := cell_heap hh 6; have r7 := cell_heap hh 7
      have x0 := cell_heap hx 0; have x1 := cell_heap hx 1; have x2 := cell_heap hx 2; have x3 := cell_heap hx 3; have x4 := cell_heap hx 4; have x5 := cell_heap hx 5; have x6 := cell_heap hx 6; have x7 := cell_heap hx 7
      have y0 := cell_heap hy 0; have y1 := cell_heap hy 1; have y2 := cell_heap hy 2; have y3 := cell_heap hy 3; have y4 := cell_heap hy 4; have y5 := cell_heap hy 5; have y6 := cell_heap hy 6; have y7 := cell_heap hy 7
      have hEC : ∀ V : World, (Op.equalIn 10000 26 (.agg (hrow C)) (.agg (hrow C))).run Tryd.prog V = .ok true V := fun V => by
        rw [run_equal_hash V 26 C C hcl hcl Tryd.underlying26 Tryd.underlying5 (by kernel_rfl)]; simp
      clear hg hh hx hy hc hd
      obtain ⟨hcb, hfb⟩ := beyond_cells (W := WY)
      refine wp_region_below (by kernel_rfl) (by kernel_rfl) ?_
      repeat (first | (go_big_quiet_want; refine quiet_load (v := .agg (hrow C)) 26 (.tmp 11) rfl (by rfl) (by rintro _ ⟨n, rfl⟩; exact lc n) ?_; simp only [Act.put, List.setIfInBounds_toArray, List.set_cons_succ, List.set_cons_zero]; go_big_quiet_on) | (go_big_quiet_want; refine quiet_load (v := .agg (hrow C)) 26 (.tmp 12) rfl (by rfl) (by rintro _ ⟨n, rfl⟩; exact ld n) ?_; simp only [Act.put, List.setIfInBounds_toArray, List.set_cons_succ, List.set_cons_zero]; go_big_quiet_on) | (go_big_quiet_step (first | (go_at_call 37; exact quiet_below (CM _)) | (go_at_call 31; exact quiet_below (CMr _)) | (go_at_call 38; exact quiet_below (CO _)) | (go_at_call 39; exact quiet_below (COr _)) | (go_at_call 40; exact quiet_below (CSm _)))))
      intro w9 hw9
      have hb9 := beyond_below hw9
      clear hcb hfb
      go_wp2
      go_ret
      exact ⟨rfl, hbel.trans (hb9.mono hbel.size)⟩
end Go.Proofs.YtfblbholkhdldaaDoor
