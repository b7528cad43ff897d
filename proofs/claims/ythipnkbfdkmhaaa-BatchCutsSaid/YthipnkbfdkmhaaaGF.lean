/- A block of cells of the call's own: what each cell holds, by a function of its number. ligref1.Text: a hash as its 32 bytes. The document's packets and proofs in bytes. The document's messages in bytes. -/
import Derived.Test.YthipnkbfdkmhaaaGA
import Derived.OwnWalk
import Derived.Below
import Derived.Test.YthipnkbfdkmhaaaSB
import Derived.Test.YthipnkbfdkmhaaaGD
import Derived.Laws.IdiomStrings
import Derived.WalkKit
import Derived.ProofKit
import Derived.Handy
import Derived.Lib.Hide
import Derived.IntWalk
import Derived.Outline
import Derived.WalkLawsBesides
import Derived.WalkSpells
import Derived.Test.YthipnkbfdkmhaaaSD
import Derived.Test.YthipnkbfdkmhaaaPf3
import Derived.BigRegion
import Derived.RegionTactic
import Derived.BigQuiet
import Derived.Deep.QuietTactic
import Derived.Deep.MidRow
import Derived.LoopTactic
import Derived.BigFrame
import Derived.Test.YthipnkbfdkmhaaaGE
import Derived.Test.YthipnkbfdkmhaaaSE
namespace Go.Proofs.Ythipnkbfdkmhaaa
open Go.RowKit

/-- Block g has n cells, cell k holds f k; none is frozen. -/
def VR (w : World) (g n : Nat) (f : Nat → Value) : Prop := ∃ cur e, w.heap[g]? = some (.cells cur e (0, 0)) ∧ cur.size = n ∧ ∀ k, k < n → cur[k]? = some (f k)
theorem VR.lt {w : World} {g n : Nat} {f : Nat → Value} (h : VR w g n f) : g < w.heap.size := by
  obtain ⟨cur, e, h1, _⟩ := h
  exact (Array.getElem?_eq_some_iff.1 h1).1
theorem VR.cell {w : World} {g n : Nat} {f : Nat → Value} (h : VR w g n f) {k : Nat} (hk : k < n) : w.cell? ⟨g, k, none⟩ = some (f k) := by
  obtain ⟨cur, e, h1, h2, h3⟩ := h
  unfold World.cell?; rw [h1]; exact h3 k hk
theorem VR.frozen {w : World} {g n : Nat} {f : Nat → Value} (h : VR w g n f) (k : Nat) : w.frozen? ⟨g, k, none⟩ = false := by
  obtain ⟨cur, e, h1, h2, h3⟩ := h
  unfold World.frozen?; rw [h1]; simp
theorem VR.congr {w : World} {g n : Nat} {f f' : Nat → Value} (h : VR w g n f) (e : ∀ k, k < n → f k = f' k) : VR w g n f' := by
  obtain ⟨cur, e', h1, h2, h3⟩ := h
  exact ⟨cur, e', h1, h2, fun k hk => by rw [h3 k hk, e k hk]⟩
theorem VR.set {w : World} {g n : Nat} {f : Nat → Value} (h : VR w g n f) {k : Nat} (v : Value) : VR (w.setCell ⟨g, k, none⟩ v) g n (fun j => if j = k then v else f j) := by
  obtain ⟨cur, e, h1, h2, h3⟩ := h
  refine ⟨cur.setIfInBounds k v, e, ?_, by simpa using h2, fun j hj => ?_⟩
  · simp [World.setCell, Array.getElem?_modify, h1]
  · rw [Array.getElem?_setIfInBounds]
    by_cases hjk : k = j
    · subst hjk; simp [h2, hj]
    · rw [if_neg hjk, h3 j hj]; show _ = some (if j = k then v else f j); rw [if_neg (fun e => hjk e.symm)]
theorem VR.other {w : World} {g n : Nat} {f : Nat → Value} (h : VR w g n f) {a : Addr} (ha : g ≠ a.block) (v : Value) : VR (w.setCell a v) g n f := by
  obtain ⟨cur, e, h1, h2⟩ := h
  exact ⟨cur, e, by rw [Below.heap_setCell _ _ _ _ ha]; exact h1, h2⟩
theorem VR.below {w w' : World} {B g n : Nat} {f : Nat → Value} (h : VR w g n f) (hb : Below B w w') (hg : g < B) : VR w' g n f := by
  obtain ⟨cur, e, h1, h2⟩ := h
  exact ⟨cur, e, by rw [hb.block g hg]; exact h1, h2⟩
theorem VR.drewN {w : World} {g n : Nat} {f : Nat → Value} (h : VR w g n f) (q : Nat) : VR (w.drewN q) g n f := h

theorem wpList_makeV {P : Program} (w : World) {ops : Array Oper} {rest : List Oper} {o : Oper} {a : Act} {Q : Exit → Act → World → Prop}
    (hg : o.guard = none) (l c : Operand) (t : TypeId) (hop : o.op = Op.makeSlice t l c)
    (e : TypeId) (z : Value) (by_ : Nat) (h1 : P.underlying t = some (.slice e)) (h2 : (P.info? e).map (fun i => (i.zero, i.size, i.bytes)) = some (some z, 1, by_)) (hz : z.cells = #[z])
    (L C : Int) (n : Nat) (hl : a.eval l = .int .i64 L) (hc : a.eval c = .int .i64 C) (hL : L = (n : Int)) (hC : C = (n : Int)) (b2 : by_ * n ≤ 281474976710656) (b3 : n ≤ maxLen)
    (hK : ∀ w' g, w.heap.size ≤ g → w'.heap.size = g + 1 → VR w' g n (fun _ => z) → Below w.heap.size w w' → wpList P ops Q rest (a.put o.dst (.slice (some ⟨g, 0, none⟩) n n)) w') :
    wpList P ops Q (o :: rest) a w := by
  obtain ⟨i, hi, hi2⟩ : ∃ i, P.info? e = some i ∧ (i.zero, i.size, i.bytes) = (some z, 1, by_) := by
    cases hh : P.info? e with
    | none => rw [hh] at h2; cases h2
    | some i => rw [hh] at h2; exact ⟨i, rfl, Option.some.inj h2⟩
  obtain ⟨e1, e2, e3⟩ : i.zero = some z ∧ i.size = 1 ∧ i.bytes = by_ := by injection hi2 with q1 q2; injection q2 with q2 q3; exact ⟨q1, q2, q3⟩
  refine wpList_plain hg fun K hK' => ?_
  subst hL
  subst hC
  have hrun := run_make (P := P) w t e i z h1 hi e1 .i64 .i64 (n : Int) (n : Int) (by omega) (by omega) (by rw [e3]; have hh := Int.ofNat_le.2 b2; rw [Int.natCast_mul] at hh; exact hh) (by unfold maxLen at b3; omega)
  unfold Oper.wp
  simp [execOp, hop, hl, hc, hrun, Result.andThen]
  refine hK' _ _ (hK _ w.heap.size (Nat.le_refl _) (by show (w.heap.push _).size = _; rw [Array.size_push]) ⟨madeCells z.cells n, e, ?_, size_madeCells _ _, ?_⟩ (Below.alloc (Below.refl _ _) (Nat.le_refl _) _))
  · show (w.heap.push _)[w.heap.size]? = _
    rw [Array.getElem?_push_size, e2, Nat.mul_one]
  · intro k hk
    rw [hz]
    simp [madeCells, hk, Nat.mod_one]
end Go.Proofs.Ythipnkbfdkmhaaa
namespace Go.Proofs.Ythipnkbfdkmhaaa
open Go.RowKit
attribute [local go_sem] strV
set_option maxRecDepth 100000 in
set_option maxHeartbeats 1600000 in
theorem refText_any (w : World) (q : List UInt8) (hq : q.length = 32) :
    Calls Try.prog 61 #[.agg (hrow q)] w fun e w' => e = .returned (.string ⟨q.toArray⟩) ∧ Below w.heap.size w w' := by
  have HQ := Lib.hid hq
  have hg0 : (w.alloc (.cells (hrow q) 23)).heap[w.heap.size]? = some (.cells (hrow q) 23 (0, 0)) := by
    show (w.heap.push _)[w.heap.size]? = _
    simp
  go_enter Try.func61, Try.ntmps61
  go_wp2_with (at_make; refine wpList_makeV _ rfl _ _ 125 rfl 5 (.int .u8 0) 1 Try.underlying125 (by kernel_rfl) rfl _ _ 32 rfl rfl (by omega) (by omega) (by omega) (by unfold maxLen; omega) ?_)
  intro w1 g hg hgs hv hb1
  have hz : w1.heap[w.heap.size]? = some (.cells (hrow q) 23 (0, 0)) := by rw [hb1.block _ (by simp)]; exact hg0
  have hbel : Below w.heap.size w w1 := (Below.alloc (Below.refl _ _) (Nat.le_refl _) _).trans (hb1.mono (by simp))
  have hg1 : w.heap.size + 1 ≤ g := by simpa using hg
  clear hg hgs hb1 hg0
  go_wp2
  go_loopw [4] (fun v W => ∃ k : Nat, k ≤ 32 ∧ Below w.heap.size w W ∧ W.heap[w.heap.size]? = some (.cells (hrow q) 23 (0, 0)) ∧ VR W g 32 (fun j => if j < k then .int .u8 ((q.getD j 0).toNat : Nat) else .int .u8 0) ∧ v = .int .i64 (k : Int)) (fun v _ => 32 - (intOf v).toNat)
  case atStart => exact ⟨0, by omega, hbel, hz, hv.congr (fun j hj => by simp), rfl⟩
  case round =>
    clear hbel hz hv
    obtain ⟨k, hk, hbel, hz, hv, rfl⟩ := hrel
    by_cases hlt : k < 32
    · have d1 : decide ((k : Int) < 32) = true := decide_eq_true (by omega)
      have ck : wr.cell? ⟨w.heap.size, k, none⟩ = some (.int .u8 ((q.getD k 0).toNat : Nat)) := by rw [cell_heap hz, hrow_at q k (by rw [HQ.out]; exact hlt)]
      have ek := hv.cell hlt
      have fk := hv.frozen k
      go_wp2
      go_roundw
      case rel =>
        refine ⟨k + 1, by omega, hbel.setCell (p := ⟨g, k, none⟩) (by show _ ≤ g; omega) _, row_set hz (by omega), (hv.set (k := k) _).congr (fun j hj => ?_), by go_num⟩
        by_cases hjk : j = k
        · subst hjk; simp [List.getD, List.getElem?_eq_getElem (show j < q.length by rw [HQ.out]; exact hj)]
        · rw [if_neg hjk]
          by_cases hj2 : j < k
          · rw [if_pos hj2, if_pos (by omega)]
          · rw [if_neg hj2, if_neg (by omega)]
      case measure => (simp [intOf]) <;> omega
    · obtain rfl : k = 32 := by omega
      have hcv : (convert 125 9 (.slice (some ⟨g, 0, none⟩) 32 32)).run Try.prog wr = .ok (.string ⟨q.toArray⟩) wr := by
        have := run_convert_bytes_back (P := Try.prog) wr 125 9 5 ⟨g, 0, none⟩ 32 q Try.underlying125 Try.underlying5 Try.underlying9 (fun j hj => by
          have hadd : (⟨g, 0, none⟩ : Addr).add j = ⟨g, j, none⟩ := by unfold Addr.add; by_cases h : j = 0 <;> simp [h]
          have hj' : j < 32 := by rw [← HQ.out]; exact hj
          rw [hadd, hv.cell hj', if_pos hj']
          simp [List.getD, List.getElem?_eq_getElem hj])
        rwa [HQ.out] at this
      go_wp2
      go_ret
      exact ⟨rfl, hbel⟩
end Go.Proofs.Ythipnkbfdkmhaaa
namespace Go.Proofs.Ythipnkbfdkmhaaa
open Go.RowKit
attribute [local go_sem] strV
set_option linter.unusedVariables false
theorem ba_app (a b : List UInt8) : (⟨a.toArray⟩ : ByteArray) ++ ⟨b.toArray⟩ = ⟨(a ++ b).toArray⟩ := by
  apply ByteArray.ext; simp
theorem pkB_parts (sp : ByteArray) (sc : Int) (dp : ByteArray) (dc sq : Int) (da : ByteArray) (th ta : Int) : (⟨(pkB ((sp, sc), (dp, dc), sq, da, th, ta)).toArray⟩ : ByteArray) = ⟨(putL (sp.size : Int) ++ sp.data.toList).toArray⟩ ++ ⟨(putL sc).toArray⟩ ++ ⟨(putL (dp.size : Int) ++ dp.data.toList).toArray⟩ ++ ⟨(putL dc).toArray⟩ ++ ⟨(putL sq).toArray⟩ ++ ⟨(putL (da.size : Int) ++ da.data.toList).toArray⟩ ++ ⟨(putL th).toArray⟩ ++ ⟨(putL ta).toArray⟩ := by
  simp only [ba_app]
  rw [pkB_eq]
  unfold pkBy endBy
  simp only [List.append_assoc]
set_option maxRecDepth 100000 in
set_option maxHeartbeats 12800000 in
theorem refPutPk_any (sp : ByteArray) (sc : Int) (dp : ByteArray) (dc sq : Int) (da : ByteArray) (th ta : Int) (w : World) (h1 : sp.size ≤ 12) (h2 : dp.size ≤ 12) (h3 : da.size ≤ 200) :
    Calls Try.prog 62 #[.agg #[.string sp, .int .i64 sc, .string dp, .int .i64 dc, .int .i64 sq, .string da, .int .i64 th, .int .i64 ta]] w fun e w' => e = .returned (.string ⟨(pkB ((sp, sc), (dp, dc), sq, da, th, ta)).toArray⟩) ∧ Below w.heap.size w w' := by
  rw [pkB_parts]
  have P0 := fun W => refPutText_any sp W (by omega)
  unfold strV at P0
  have z0 : (⟨(putL (sp.size : Int) ++ sp.data.toList).toArray⟩ : ByteArray).size ≤ 220 := by show (putL (sp.size : Int) ++ sp.data.toList).length ≤ 220; have := putL_len8 (sp.size : Int); rw [List.length_append, str_len]; omega
  obtain ⟨x0, hx0⟩ : ∃ x : ByteArray, (⟨(putL (sp.size : Int) ++ sp.data.toList).toArray⟩ : ByteArray) = x := ⟨_, rfl⟩
  simp only [hx0] at P0 z0 ⊢
  have P1 := fun W => putNum_any sc W
  unfold strV at P1
  have z1 : (⟨(putL sc).toArray⟩ : ByteArray).size ≤ 220 := by show (putL sc).length ≤ 220; have := putL_len8 sc; omega
  obtain ⟨x1, hx1⟩ : ∃ x : ByteArray, (⟨(putL sc).toArray⟩ : ByteArray) = x := ⟨_, rfl⟩
  simp only [hx1] at P1 z1 ⊢
  have P2 := fun W => refPutText_any dp W (by omega)
  unfold strV at P2
  have z2 : (⟨(putL (dp.size : Int) ++ dp.data.toList).toArray⟩ : ByteArray).size ≤ 220 := by show (putL (dp.size : Int) ++ dp.data.toList).length ≤ 220; have := putL_len8 (dp.size : Int); rw [List.length_append, str_len]; omega
  obtain ⟨x2, hx2⟩ : ∃ x : ByteArray, (⟨(putL (dp.size : Int) ++ dp.data.toList).toArray⟩ : ByteArray) = x := ⟨_, rfl⟩
  simp only [hx2] at P2 z2 ⊢
  have P3 := fun W => putNum_any dc W
  unfold strV at P3
  have z3 : (⟨(putL dc).toArray⟩ : ByteArray).size ≤ 220 := by show (putL dc).length ≤ 220; have := putL_len8 dc; omega
  obtain ⟨x3, hx3⟩ : ∃ x : ByteArray, (⟨(putL dc).toArray⟩ : ByteArray) = x := ⟨_, rfl⟩
  simp only [hx3] at P3 z3 ⊢
  have P4 := fun W => putNum_any sq W
  unfold strV at P4
  have z4 : (⟨(putL sq).toArray⟩ : ByteArray).size ≤ 220 := by show (putL sq).length ≤ 220; have := putL_len8 sq; omega
  obtain ⟨x4, hx4⟩ : ∃ x : ByteArray, (⟨(putL sq).toArray⟩ : ByteArray) = x := ⟨_, rfl⟩
  simp only [hx4] at P4 z4 ⊢
  have P5 := fun W => refPutText_any da W (by omega)
  unfold strV at P5
  have z5 : (⟨(putL (da.size : Int) ++ da.data.toList).toArray⟩ : ByteArray).size ≤ 220 := by show (putL (da.size : Int) ++ da.data.toList).length ≤ 220; have := putL_len8 (da.size : Int); rw [List.length_append, str_len]; omega
  obtain ⟨x5, hx5⟩ : ∃ x : ByteArray, (⟨(putL (da.size : Int) ++ da.data.toList).toArray⟩ : ByteArray) = x := ⟨_, rfl⟩
  simp only [hx5] at P5 z5 ⊢
  have P6 := fun W => putNum_any th W
  unfold strV at P6
  have z6 : (⟨(putL th).toArray⟩ : ByteArray).size ≤ 220 := by show (putL th).length ≤ 220; have := putL_len8 th; omega
  obtain ⟨x6, hx6⟩ : ∃ x : ByteArray, (⟨(putL th).toArray⟩ : ByteArray) = x := ⟨_, rfl⟩
  simp only [hx6] at P6 z6 ⊢
  have P7 := fun W => putNum_any ta W
  unfold strV at P7
  have z7 : (⟨(putL ta).toArray⟩ : ByteArray).size ≤ 220 := by show (putL ta).length ≤ 220; have := putL_len8 ta; omega
  obtain ⟨x7, hx7⟩ : ∃ x : ByteArray, (⟨(putL ta).toArray⟩ : ByteArray) = x := ⟨_, rfl⟩
  simp only [hx7] at P7 z7 ⊢
  have n1 : ¬ 9223372036854775807 < x0.size + x1.size := by omega
  have m1 : ¬ 9223372036854775807 < (x0).size + x1.size := by first | omega | (simp only [ByteArray.size_append]; omega)
  have n2 : ¬ 9223372036854775807 < x0.size + x1.size + x2.size := by omega
  have m2 : ¬ 9223372036854775807 < (x0 ++ x1).size + x2.size := by first | omega | (simp only [ByteArray.size_append]; omega)
  have n3 : ¬ 9223372036854775807 < x0.size + x1.size + x2.size + x3.size := by omega
  have m3 : ¬ 9223372036854775807 < (x0 ++ x1 ++ x2).size + x3.size := by first | omega | (simp only [ByteArray.size_append]; omega)
  have n4 : ¬ 9223372036854775807 < x0.size + x1.size + x2.size + x3.size + x4.size := by omega
  have m4 : ¬ 9223372036854775807 < (x0 ++ x1 ++ x2 ++ x3).size + x4.size := by first | omega | (simp only [ByteArray.size_append]; omega)
  have n5 : ¬ 9223372036854775807 < x0.size + x1.size + x2.size + x3.size + x4.size + x5.size := by omega
  have m5 : ¬ 9223372036854775807 < (x0 ++ x1 ++ x2 ++ x3 ++ x4).size + x5.size := by first | omega | (simp only [ByteArray.size_append]; omega)
  have n6 : ¬ 9223372036854775807 < x0.size + x1.size + x2.size + x3.size + x4.size + x5.size + x6.size := by omega
  have m6 : ¬ 9223372036854775807 < (x0 ++ x1 ++ x2 ++ x3 ++ x4 ++ x5).size + x6.size := by first | omega | (simp only [ByteArray.size_append]; omega)
  have n7 : ¬ 9223372036854775807 < x0.size + x1.size + x2.size + x3.size + x4.size + x5.size + x6.size + x7.size := by omega
  have m7 : ¬ 9223372036854775807 < (x0 ++ x1 ++ x2 ++ x3 ++ x4 ++ x5 ++ x6).size + x7.size := by first | omega | (simp only [ByteArray.size_append]; omega)
  clear hx0 z0 hx1 z1 hx2 z2 hx3 z3 hx4 z4 hx5 z5 hx6 z6 hx7 z7
  have hg0 := heap_push w #[.string sp, .int .i64 sc, .string dp, .int .i64 dc, .int .i64 sq, .string da, .int .i64 th, .int .i64 ta] 29
  have hbA : Below w.heap.size w (w.alloc (.cells #[.string sp, .int .i64 sc, .string dp, .int .i64 dc, .int .i64 sq, .string da, .int .i64 th, .int .i64 ta] 29)) := Below.alloc (Below.refl _ _) (Nat.le_refl _) _
  go_enter Try.func62, Try.ntmps62
  go_upto_region 1 with fail
  refine wp_nameE _ (fun W1 hX => ?_)
  have hg : W1.heap[w.heap.size]? = some (.cells #[.string sp, .int .i64 sc, .string dp, .int .i64 dc, .int .i64 sq, .string da, .int .i64 th, .int .i64 ta] 29 (0, 0)) := by rw [hX]; exact hg0
  have hbel : Below w.heap.size w W1 := by rw [hX]; exact hbA
  clear hX hg0 hbA
  have hgB : w.heap.size < W1.heap.size := (Array.getElem?_eq_some_iff.1 hg).1
  have q0 := cell_heap hg 0; have q1 := cell_heap hg 1; have q2 := cell_heap hg 2; have q3 := cell_heap hg 3; have q4 := cell_heap hg 4; have q5 := cell_heap hg 5; have q6 := cell_heap hg 6; have q7 := cell_heap hg 7
  obtain ⟨hcb, hfb⟩ := beyond_cells (W := W1)
  refine wp_region_below (by kernel_rfl) (by kernel_rfl) ?_
  repeat (go_big_quiet_step (first | (go_at_call 63; first | with_reducible exact quiet_below (P0 _) | with_reducible exact quiet_below (P2 _) | with_reducible exact quiet_below (P5 _)) | (go_at_call 60; first | with_reducible exact quiet_below (P1 _) | with_reducible exact quiet_below (P3 _) | with_reducible exact quiet_below (P4 _) | with_reducible exact quiet_below (P6 _) | with_reducible exact quiet_below (P7 _))))
  intro w9 hw9
  have hb9 := beyond_below hw9
  clear hcb hfb
  go_wp2
  go_ret
  exact ⟨rfl, hbel.trans (hb9.mono hbel.size)⟩
theorem ba_list (a b : ByteArray) : (a ++ b).data.toList = a.data.toList ++ b.data.toList := by simp
theorem ba_of {s : ByteArray} {l : List UInt8} (h : s.data.toList = l) : s = ⟨l.toArray⟩ := by apply ByteArray.ext; rw [← h]
set_option maxRecDepth 100000 in
set_option maxHeartbeats 12800000 in
theorem refPutPf_any (ct : Int) (a : Option Addr) (n cap : Nat) (xs : List LeafV) (w : World) (h : LvsAt w a xs) (hn : xs.length = n) (hM : mayPfB ct xs = true) :
    Calls Try.prog 64 #[.agg #[.int .i64 ct, .slice a n cap]] w fun e w' => e = .returned (.string ⟨(pfBy ct xs).toArray⟩) ∧ Below w.heap.size w w' := by
  obtain ⟨m1, m2, m3, m4⟩ := mayPfB_parts hM
  have hlb : ∀ x ∈ xs, (leafBy x).length ≤ 1216 := fun x hx => leafBy_len (m4 x hx).1 (m4 x hx).2.1 (m4 x hx).2.2.2.2
  have HN := Lib.hid hn
  have hn2 : n ≤ 2 := by omega
  obtain ⟨FIN, hFIN⟩ : ∃ F, pfBy ct xs = F := ⟨_, rfl⟩
  rw [hFIN]
  have HFIN : Hid (putL ct ++ putL (n : Int) ++ xs.flatMap leafBy = FIN) := Lib.hid (by rw [← hFIN, ← hn]; rfl)
  clear hFIN hM hn
  have P0 := fun W => putNum_any (ct) W
  unfold strV at P0
  have y0 : (⟨(putL (ct)).toArray⟩ : ByteArray).size ≤ 400 := by show (putL (ct)).length ≤ 400; have := putL_len8 (ct); omega
  obtain ⟨A0, hA0⟩ : ∃ x : ByteArray, (⟨(putL (ct)).toArray⟩ : ByteArray) = x := ⟨_, rfl⟩
  simp only [hA0] at P0 y0
  have HA0 := Lib.hid (congrArg (fun b : ByteArray => b.data.toList) hA0)
  simp only at HA0
  clear hA0
  have P1 := fun W => putNum_any ((n : Int)) W
  unfold strV at P1
  have y1 : (⟨(putL ((n : Int))).toArray⟩ : ByteArray).size ≤ 400 := by show (putL ((n : Int))).length ≤ 400; have := putL_len8 ((n : Int)); omega
  obtain ⟨A1, hA1⟩ : ∃ x : ByteArray, (⟨(putL ((n : Int))).toArray⟩ : ByteArray) = x := ⟨_, rfl⟩
  simp only [hA1] at P1 y1
  have HA1 := Lib.hid (congrArg (fun b : ByteArray => b.data.toList) hA1)
  simp only at HA1
  clear hA1
  have hg0 := heap_push w #[.int .i64 ct, .slice a n cap] 32
  have hbA : Below w.heap.size w (w.alloc (.cells #[.int .i64 ct, .slice a n cap] 32)) := Below.alloc (Below.refl _ _) (Nat.le_refl _) _
  have n1 : ¬ 9223372036854775807 < A0.size + A1.size := by omega
  go_enter Try.func64, Try.ntmps64
  go_upto_region 1 with fail
  refine wp_nameE _ (fun W1 hX => ?_)
  have hg : W1.heap[w.heap.size]? = some (.cells #[.int .i64 ct, .slice a n cap] 32 (0, 0)) := by rw [hX]; exact hg0
  have hb1 : Below w.heap.size w W1 := by rw [hX]; exact hbA
  clear hX hg0 hbA
  have hgl : w.heap.size < W1.heap.size := (Array.getElem?_eq_some_iff.1 hg).1
  have q0 := cell_heap hg 0; have q1 := cell_heap hg 1
  obtain ⟨hcb, hfb⟩ := beyond_cells (W := W1)
  refine wp_region_below (by kernel_rfl) (by kernel_rfl) ?_
  repeat (go_big_quiet_step (first | (go_at_call 60; first | with_reducible exact quiet_below (P0 _) | with_reducible exact quiet_below (P1 _))))
  intro w9 hw9
  have hb9 := beyond_below hw9
  clear hcb hfb hw9
  have hg := cells_of hg hb9 hgl
  have hgl := Nat.lt_of_lt_of_le hgl hb9.size
  have hb1 := hb1.trans (hb9.mono hb1.size)
  clear q0 q1 hb9
  go_upto_region 3 with fail
  go_loopw [3, 4] (fun s i wr => ∃ (k : Nat) (S : ByteArray), k ≤ n ∧ i = .int .i64 k ∧ s = .string S ∧ Hid (S.data.toList = putL ct ++ putL (n : Int) ++ (xs.take k).flatMap leafBy) ∧ S.size ≤ 800 + k * 1216 ∧ Below w9.heap.size w9 wr) (fun _ i _ => n - (intOf i).toNat)
  case atStart => exact ⟨0, A0 ++ A1, Nat.zero_le _, rfl, rfl, Lib.hid (by rw [ba_list, ← HA0.out, ← HA1.out]; simp), by rw [ByteArray.size_append]; omega, Below.refl _ _⟩
  case round =>
    obtain ⟨k, S, hk, rfl, rfl, HS, hS, hbW⟩ := hrel
    have hbel := hb1.trans (hbW.mono hb1.size)
    have hg := cells_of hg hbW hgl
    have hgl := Nat.lt_of_lt_of_le hgl hbW.size
    have q0 := cell_heap hg 0; have q1 := cell_heap hg 1
    by_cases hlt : k < n
    · have d1 : decide ((k : Int) < (n : Int)) = true := decide_eq_true (by omega)
      have d1n : decide (k < n) = true := decide_eq_true hlt
      have hkl : k < xs.length := by rw [HN.out]; exact hlt
      obtain ⟨b1, o1, rfl, hlb1, hg1⟩ := lv_range (h.row.below hbel) hkl
      have ok1 := (h.each _ (List.getElem_mem hkl)).below hbel
      have hm := m4 _ (List.getElem_mem hkl)
      have hstep := flat_takeB (f := leafBy) hkl
      obtain ⟨⟨key, val, idx, pa, pn, pc, path⟩, hp9⟩ : ∃ p, xs[k] = p := ⟨_, rfl⟩
      rw [hp9] at hg1 ok1 hstep hm
      have hg1 : wr.rangeAt b1 (o1 + k * 4) [.string key, .string val, .int .i64 idx, .slice pa pn pc] := hg1
      have hpl : path.length = pn := ok1.len
      have okr : RowAt wr pa (path.flatMap H32.cells) := ok1.row
      obtain ⟨g1, g2, g3, g4, g5⟩ := hm
      simp only at g1 g2 g3 g4 g5
      have hpn : pn ≤ 30 := by omega
      have HST : Hid (putL ct ++ putL (n : Int) ++ (xs.take (k + 1)).flatMap leafBy = S.data.toList ++ (putL (key.size : Int) ++ key.data.toList ++ (putL (val.size : Int) ++ val.data.toList) ++ putL idx ++ putL (pn : Int)) ++ path.flatMap (·.1)) := Lib.hid (by
        rw [hstep, HS.out]; unfold leafBy; simp only [hpl, List.append_assoc])
      have HPL := Lib.hid hpl
      have n0 : (0 : Int) ≤ (k : Int) := by omega
      have n1' : (k : Int) < (n : Int) := by omega
      have n2' : ((k : Nat) : Int).toNat = k := by omega
      clear hp9 ok1 hpl hstep HA0 HA1 P0 P1 n1 y0 y1
      go_upto_region 6 with (first | (refine wpList_load_mid rfl 111 (.tmp 25) rfl b1 _ rfl _ _ hg1 Try.underlying111 rfl (by kernel_rfl) ?_) | (refine wpList_storeRowTo rfl (.tmp 5) (.tmp 26) 111 rfl (by kernel_rfl) rfl (by rfl) (heap_push _ _ _) rfl (leaf_one _ _ _ _ _ _) ?_))
      refine wp_nameE _ (fun W5 hX => ?_)
      have hb5 : Below wr.heap.size wr W5 := by rw [hX]; first | exact below_setRow (Below.alloc (Below.refl _ _) (Nat.le_refl _) _) (Nat.le_refl _) _ | exact Below.alloc (Below.refl _ _) (Nat.le_refl _) _
      have hx : W5.heap[wr.heap.size]? = some (.cells #[.string key, .string val, .int .i64 idx, .slice pa pn pc] 111 (0, 0)) := by rw [hX]; first | exact setRow_heap _ _ _ _ _ _ (heap_push _ _ _) | exact heap_push _ _ _
      clear hX hg1
      obtain ⟨gx, hgx⟩ : ∃ g, wr.heap.size = g := ⟨_, rfl⟩
      rw [hgx] at hx
      simp only [hgx]
      have hxl : gx < W5.heap.size := (Array.getElem?_eq_some_iff.1 hx).1
      have okr := okr.below hb5
      have hbel := hbel.trans (hb5.mono hbel.size)
      have hbW := hbW.trans (hb5.mono hbW.size)
      clear hgx hb5 q0 q1
      have x0 := cell_heap hx 0; have x1 := cell_heap hx 1; have x2 := cell_heap hx 2; have x3 := cell_heap hx 3
      have P0 := fun W => refPutText_any key W (by omega)
      unfold strV at P0
      have y0 : (⟨(putL (key.size : Int) ++ key.data.toList).toArray⟩ : ByteArray).size ≤ 400 := by show (putL (key.size : Int) ++ key.data.toList).length ≤ 400; have := putL_len8 (key.size : Int); rw [List.length_append, str_len]; omega
      obtain ⟨A0, hA0⟩ : ∃ x : ByteArray, (⟨(putL (key.size : Int) ++ key.data.toList).toArray⟩ : ByteArray) = x := ⟨_, rfl⟩
      simp only [hA0] at P0 y0
      have HA0 := Lib.hid (congrArg (fun b : ByteArray => b.data.toList) hA0)
      simp only at HA0
      clear hA0
      have P1 := fun W => refPutText_any val W (by omega)
      unfold strV at P1
      have y1 : (⟨(putL (val.size : Int) ++ val.data.toList).toArray⟩ : ByteArray).size ≤ 400 := by show (putL (val.size : Int) ++ val.data.toList).length ≤ 400; have := putL_len8 (val.size : Int); rw [List.length_append, str_len]; omega
      obtain ⟨A1, hA1⟩ : ∃ x : ByteArray, (⟨(putL (val.size : Int) ++ val.data.toList).toArray⟩ : ByteArray) = x := ⟨_, rfl⟩
      simp only [hA1] at P1 y1
      have HA1 := Lib.hid (congrArg (fun b : ByteArray => b.data.toList) hA1)
      simp only at HA1
      clear hA1
      have P2 := fun W => putNum_any (idx) W
      unfold strV at P2
      have y2 : (⟨(putL (idx)).toArray⟩ : ByteArray).size ≤ 400 := by show (putL (idx)).length ≤ 400; have := putL_len8 (idx); omega
      obtain ⟨A2, hA2⟩ : ∃ x : ByteArray, (⟨(putL (idx)).toArray⟩ : ByteArray) = x := ⟨_, rfl⟩
      simp only [hA2] at P2 y2
      have HA2 := Lib.hid (congrArg (fun b : ByteArray => b.data.toList) hA2)
      simp only at HA2
      clear hA2
      have P3 := fun W => putNum_any ((pn : Int)) W
      unfold strV at P3
      have y3 : (⟨(putL ((pn : Int))).toArray⟩ : ByteArray).size ≤ 400 := by show (putL ((pn : Int))).length ≤ 400; have := putL_len8 ((pn : Int)); omega
      obtain ⟨A3, hA3⟩ : ∃ x : ByteArray, (⟨(putL ((pn : Int))).toArray⟩ : ByteArray) = x := ⟨_, rfl⟩
      simp only [hA3] at P3 y3
      have HA3 := Lib.hid (congrArg (fun b : ByteArray => b.data.toList) hA3)
      simp only at HA3
      clear hA3
      have s1 : ¬ 9223372036854775807 < A0.size + A1.size := by omega
      have s2 : ¬ 9223372036854775807 < A0.size + A1.size + A2.size := by omega
      have sm2 : ¬ 9223372036854775807 < (A0 ++ A1).size + A2.size := by first | omega | (simp only [ByteArray.size_append]; omega)
      have s3 : ¬ 9223372036854775807 < A0.size + A1.size + A2.size + A3.size := by omega
      have sm3 : ¬ 9223372036854775807 < (A0 ++ A1 ++ A2).size + A3.size := by first | omega | (simp only [ByteArray.size_append]; omega)
      have s4 : ¬ 9223372036854775807 < S.size + (A0.size + A1.size + A2.size + A3.size) := by omega
      have sm4 : ¬ 9223372036854775807 < S.size + (A0 ++ A1 ++ A2 ++ A3).size := by simp only [ByteArray.size_append]; omega
      obtain ⟨hcb, hfb⟩ := beyond_cells (W := W5)
      refine wp_region_below (by kernel_rfl) (by kernel_rfl) ?_
      repeat (go_big_quiet_step (first | (go_at_call 63; first | with_reducible exact quiet_below (P0 _) | with_reducible exact quiet_below (P1 _)) | (go_at_call 60; first | with_reducible exact quiet_below (P2 _) | with_reducible exact quiet_below (P3 _))))
      intro w7 hw7
      have hb7 := beyond_below hw7
      clear hcb hfb hw7
      have hx := cells_of hx hb7 hxl
      have hxl := Nat.lt_of_lt_of_le hxl hb7.size
      have okr := okr.below hb7
      have hbel := hbel.trans (hb7.mono hbel.size)
      have hbW := hbW.trans (hb7.mono hbW.size)
      clear hb7 x0 x1 x2 x3
      obtain ⟨T, hT⟩ : ∃ T : ByteArray, S ++ (A0 ++ A1 ++ A2 ++ A3) = T := ⟨_, rfl⟩
      have hTs : T.size ≤ 800 + k * 1216 + (A0.size + A1.size + A2.size + A3.size) := by rw [← hT]; simp only [ByteArray.size_append]; omega
      have hTb : A0.size + A1.size + A2.size + A3.size ≤ 256 := by
        have e0 := congrArg List.length HA0.out; have e1 := congrArg List.length HA1.out; have e2 := congrArg List.length HA2.out; have e3 := congrArg List.length HA3.out
        have p0 := putL_len8 (key.size : Int); have p1 := putL_len8 (val.size : Int); have p2 := putL_len8 idx; have p3 := putL_len8 (pn : Int)
        simp only [List.length_append, str_len] at e0 e1 e2 e3
        omega
      have HT : Hid (T.data.toList ++ path.flatMap (·.1) = putL ct ++ putL (n : Int) ++ (xs.take (k + 1)).flatMap leafBy) := Lib.hid (by
        rw [← hT, HST.out]; simp only [ba_list, ← HA0.out, ← HA1.out, ← HA2.out, ← HA3.out])
      simp only [hT]
      clear hT HST HA0 HA1 HA2 HA3 P0 P1 P2 P3 HS s1 s2 s3 s4 sm2 sm3 sm4 y0 y1 y2 y3
      go_upto_region 8 with fail
      go_loopw [3, 6] (fun s i wr => ∃ (j : Nat) (V : ByteArray), j ≤ pn ∧ i = .int .i64 j ∧ s = .string V ∧ Hid (V.data.toList = T.data.toList ++ (path.take j).flatMap (·.1)) ∧ V.size ≤ T.size + j * 32 ∧ Below w7.heap.size w7 wr) (fun _ i _ => pn - (intOf i).toNat)
      case atStart => exact ⟨0, T, Nat.zero_le _, rfl, rfl, Lib.hid (by simp), by omega, Below.refl _ _⟩
      case round =>
        obtain ⟨j, V, hj, rfl, rfl, HV, hV, hbv⟩ := hrel
        have hbel := hbel.trans (hbv.mono hbel.size)
        have hbW := hbW.trans (hbv.mono hbW.size)
        have hx := cells_of hx hbv hxl
        have x3 := cell_heap hx 3
        by_cases hlj : j < pn
        · have d2 : decide ((j : Int) < (pn : Int)) = true := decide_eq_true (by omega)
          have d2n : decide (j < pn) = true := decide_eq_true hlj
          have hjl : j < path.length := by rw [HPL.out]; exact hlj
          obtain ⟨b3, o3, rfl, hb3, hg3⟩ := hs_at (okr.below hbv) hjl
          have hstj := flat_takeB (f := fun q : H32 => q.1) hjl
          obtain ⟨q, hq9⟩ : ∃ q, path[j] = q := ⟨_, rfl⟩
          rw [hq9] at hg3 hstj
          have HSJ := Lib.hid hstj
          have CT := fun W => refText_any W q.1 q.2
          have yq : (⟨q.1.toArray⟩ : ByteArray).size = 32 := by show q.1.length = 32; exact q.2
          obtain ⟨B, hB⟩ : ∃ B : ByteArray, (⟨q.1.toArray⟩ : ByteArray) = B := ⟨_, rfl⟩
          have HB : Hid (B.data.toList = q.1) := Lib.hid (by rw [← hB])
          simp only [hB] at CT yq
          have m0 : (0 : Int) ≤ (j : Int) := by omega
          have m1' : (j : Int) < (pn : Int) := by omega
          have m2' : ((j : Nat) : Int).toNat = j := by omega
          have s5 : ¬ 9223372036854775807 < V.size + B.size := by omega
          clear hq9 hstj hB
          go_wp2_with (first | (refine wpList_load_mid rfl 23 (.tmp 56) rfl b3 _ rfl q.cells _ hg3 Try.underlying23 rfl (hash_infoM q) ?_; rw [H32.row]) | (go_at_call 61; refine (CT _).mono ?_; rintro e w8 ⟨rfl, hb8⟩; have hbel := hbel.trans (hb8.mono hbel.size); have hbv := hbv.trans (hb8.mono hbv.size)))
          go_roundw
          case rel => exact ⟨j + 1, V ++ B, by omega, by go_num, rfl, Lib.hid (by rw [ba_list, HV.out, HB.out, HSJ.out, List.append_assoc]), by rw [ByteArray.size_append]; omega, hbv⟩
          case measure => (simp [intOf]) <;> omega
        · obtain rfl : j = pn := by omega
          have d2 : decide ((j : Int) < (j : Int)) = false := decide_eq_false (by omega)
          have d2n : decide (j < j) = false := decide_eq_false (by omega)
          have hVf := HV.out
          rw [List.take_of_length_le (by rw [HPL.out]; omega), HT.out] at hVf
          have HVF := Lib.hid hVf
          clear hVf
          go_wp2
          go_roundw
          case rel => exact ⟨k + 1, V, by omega, by go_num, rfl, HVF, by omega, hbW⟩
          case measure => (simp [intOf]) <;> omega
    · obtain rfl : k = n := by omega
      have d1 : decide ((k : Int) < (k : Int)) = false := decide_eq_false (by omega)
      have d1n : decide (k < k) = false := decide_eq_false (by omega)
      have hSf := HS.out
      rw [List.take_of_length_le (by rw [HN.out]; omega), HFIN.out] at hSf
      obtain rfl := ba_of hSf
      go_wp2
      go_ret
      exact ⟨rfl, hbel⟩
end Go.Proofs.Ythipnkbfdkmhaaa
namespace Go.Proofs.Ythipnkbfdkmhaaa
open Go.RowKit
attribute [local go_sem] strV
set_option linter.unusedVariables false
set_option maxRecDepth 100000 in
set_option maxHeartbeats 6400000 in
theorem refEnc_1 (m : MsgV) (w : World) (hk : m.kd = 1) (hm : m.ok w) (hM : mayMsgB m = true) :
    Calls Try.prog 20 #[.agg m.row] w fun e w' => e = .returned (.tuple #[.string ⟨(msgBy m).toArray⟩, .int .i64 0]) ∧ Below w.heap.size w w' := by
  have hle := msgBy_le hM
  obtain ⟨_, _, hR⟩ := may_kd hM
  have P0 := fun W => putNum_any (m.kd) W
  unfold strV at P0
  obtain ⟨A0, hA0⟩ : ∃ x : ByteArray, (⟨(putL (m.kd)).toArray⟩ : ByteArray) = x := ⟨_, rfl⟩
  simp only [hA0] at P0
  have HA0 := Lib.hid (congrArg (fun b : ByteArray => b.data.toList) hA0)
  simp only at HA0
  clear hA0
  have P1 := fun W => putNum_any (m.hh) W
  unfold strV at P1
  obtain ⟨A1, hA1⟩ : ∃ x : ByteArray, (⟨(putL (m.hh)).toArray⟩ : ByteArray) = x := ⟨_, rfl⟩
  simp only [hA1] at P1
  have HA1 := Lib.hid (congrArg (fun b : ByteArray => b.data.toList) hA1)
  simp only at HA1
  clear hA1
  have P2 := fun W => putNum_any (m.ht) W
  unfold strV at P2
  obtain ⟨A2, hA2⟩ : ∃ x : ByteArray, (⟨(putL (m.ht)).toArray⟩ : ByteArray) = x := ⟨_, rfl⟩
  simp only [hA2] at P2
  have HA2 := Lib.hid (congrArg (fun b : ByteArray => b.data.toList) hA2)
  simp only at HA2
  clear hA2
  have P3 := fun W => refText_any W m.rt.1 m.rt.2
  obtain ⟨A3, hA3⟩ : ∃ x : ByteArray, (⟨m.rt.1.toArray⟩ : ByteArray) = x := ⟨_, rfl⟩
  simp only [hA3] at P3
  have HA3 := Lib.hid (congrArg (fun b : ByteArray => b.data.toList) hA3)
  simp only at HA3
  clear hA3
  have hF : (⟨(msgBy m).toArray⟩ : ByteArray) = A0 ++ A1 ++ A2 ++ A3 := by
    refine (ba_of ?_).symm
    simp only [ba_list, ← HA0.out, ← HA1.out, ← HA2.out, ← HA3.out]
    unfold msgBy
    rw [if_pos hk, hk]
    simp only [List.append_assoc]
  have htot : (A0 ++ A1 ++ A2 ++ A3).size ≤ 6000 := by rw [← hF, bytes_size]; exact hle
  simp only [ByteArray.size_append] at htot
  rw [hF]
  have CM := fun W (hb : Below w.heap.size w W) => refMayMsg_any m W (hm.below hb)
  simp only [hM] at CM
  clear hF hle hR hM HA0 HA1 HA2 HA3
  have n1 : ¬ 9223372036854775807 < A0.size + A1.size := by omega
  have nm1 : ¬ 9223372036854775807 < (A0).size + A1.size := by first | omega | (simp only [ByteArray.size_append]; omega)
  have n2 : ¬ 9223372036854775807 < A0.size + A1.size + A2.size := by omega
  have nm2 : ¬ 9223372036854775807 < (A0 ++ A1).size + A2.size := by first | omega | (simp only [ByteArray.size_append]; omega)
  have n3 : ¬ 9223372036854775807 < A0.size + A1.size + A2.size + A3.size := by omega
  have nm3 : ¬ 9223372036854775807 < (A0 ++ A1 ++ A2).size + A3.size := by first | omega | (simp only [ByteArray.size_append]; omega)
  have e1 : (m.kd == 1) = true := by rw [hk]; rfl
  have e3 : (m.kd == 3) = false := by rw [hk]; rfl
  have e5 : (m.kd == 5) = false := by rw [hk]; rfl
  have e4 : decide (4 ≤ m.kd) = false := by rw [hk]; rfl
  clear hk htot
  go_enter Try.func20, Try.ntmps20
  go_upto_region 1 with fail
  refine wp_nameE _ (fun W1 hX => ?_)
  have hg : W1.heap[w.heap.size]? = some (.cells m.row 34 (0, 0)) := by rw [hX]; exact heap_push _ _ _
  have hbel : Below w.heap.size w W1 := by rw [hX]; exact Below.alloc (Below.refl _ _) (Nat.le_refl _) _
  clear hX
  have hgl : w.heap.size < W1.heap.size := (Array.getElem?_eq_some_iff.1 hg).1
  obtain ⟨q0, q1, q2, q3, q4, q5, q6, q7, q8, q9, q10, q11, q12, q13, q14, q15, q16, q17⟩ := msg_cells hg
  go_upto_region 5 with (first | (refine wpList_load_mid rfl 34 (.tmp 1) rfl w.heap.size 0 rfl m.row.toList _ (rangeAt_row5 hg) Try.underlying34 rfl (msg_info _) ?_; rw [Array.toArray_toList]) | (go_at_call 22; refine (CM _ hbel).mono ?_; rintro e w2 ⟨rfl, hb⟩; have hg := cells_of hg hb hgl; have hgl := Nat.lt_of_lt_of_le hgl hb.size; have hbel := hbel.trans (hb.mono hbel.size); obtain ⟨q0, q1, q2, q3, q4, q5, q6, q7, q8, q9, q10, q11, q12, q13, q14, q15, q16, q17⟩ := msg_cells hg; clear hb) | (go_at_call 60; first | ((with_reducible refine (P0 _).mono ?_); rintro e w2 ⟨rfl, hb⟩; have hg := cells_of hg hb hgl; have hgl := Nat.lt_of_lt_of_le hgl hb.size; have hbel := hbel.trans (hb.mono hbel.size); obtain ⟨q0, q1, q2, q3, q4, q5, q6, q7, q8, q9, q10, q11, q12, q13, q14, q15, q16, q17⟩ := msg_cells hg; clear hb)))
  have hrt := msg_root hg
  have l1 := fun n => load_hash_mid hrt hgl n
  obtain ⟨hcb, hfb⟩ := beyond_cells (W := w2)
  refine wp_region_below (by kernel_rfl) (by kernel_rfl) ?_
  repeat (first | (go_big_quiet_want; refine hload9 (v := .agg (hrow m.rt.1)) 23 (.tmp 26) rfl (by rfl) (by rintro _ ⟨n, rfl⟩; exact l1 n) ?_; simp only [Act.put, List.setIfInBounds_toArray, List.set_cons_succ, List.set_cons_zero]; go_big_quiet_on) | (go_big_quiet_step (first | (go_at_call 60; first | with_reducible exact quiet_below (P1 _) | with_reducible exact quiet_below (P2 _)) | (go_at_call 61; first | with_reducible exact quiet_below (P3 _)))))
  intro w9 hw9
  have hb9 := beyond_below hw9
  go_wp2
  go_returns
  exact ⟨rfl, hbel.trans (hb9.mono hbel.size)⟩
set_option maxRecDepth 100000 in
set_option maxHeartbeats 6400000 in
theorem refEnc_2 (m : MsgV) (w : World) (hk : m.kd = 2) (hm : m.ok w) (hM : mayMsgB m = true) :
    Calls Try.prog 20 #[.agg m.row] w fun e w' => e = .returned (.tuple #[.string ⟨(msgBy m).toArray⟩, .int .i64 0]) ∧ Below w.heap.size w w' := by
  have hle := msgBy_le hM
  obtain ⟨_, _, hR⟩ := may_kd hM
  obtain ⟨r1, r2, r3, r4, r5, r6, r7, r8⟩ := rest_2 (by omega) hR
  have bd := mayK_boundsM r2
  have P0 := fun W => putNum_any (m.kd) W
  unfold strV at P0
  obtain ⟨A0, hA0⟩ : ∃ x : ByteArray, (⟨(putL (m.kd)).toArray⟩ : ByteArray) = x := ⟨_, rfl⟩
  simp only [hA0] at P0
  have HA0 := Lib.hid (congrArg (fun b : ByteArray => b.data.toList) hA0)
  simp only at HA0
  clear hA0
  have P1 := fun W => refPutPk_any m.sp m.sc m.dp m.dc m.sq m.da m.th m.ta W (by omega) (by omega) (by omega)
  obtain ⟨A1, hA1⟩ : ∃ x : ByteArray, (⟨(pkB ((m.sp, m.sc), (m.dp, m.dc), m.sq, m.da, m.th, m.ta)).toArray⟩ : ByteArray) = x := ⟨_, rfl⟩
  simp only [hA1] at P1
  have HA1 := Lib.hid (congrArg (fun b : ByteArray => b.data.toList) hA1)
  simp only at HA1
  clear hA1
  have P2 := fun W => putNum_any (m.he) W
  unfold strV at P2
  obtain ⟨A2, hA2⟩ : ∃ x : ByteArray, (⟨(putL (m.he)).toArray⟩ : ByteArray) = x := ⟨_, rfl⟩
  simp only [hA2] at P2
  have HA2 := Lib.hid (congrArg (fun b : ByteArray => b.data.toList) hA2)
  simp only at HA2
  clear hA2
  have P3 := fun W (hb : Below w.heap.size w W) => refPutPf_any m.pct m.pa m.pn m.pc m.pxs W (hm.p.below hb) hm.plen r7
  obtain ⟨A3, hA3⟩ : ∃ x : ByteArray, (⟨(pfBy m.pct m.pxs).toArray⟩ : ByteArray) = x := ⟨_, rfl⟩
  simp only [hA3] at P3
  have HA3 := Lib.hid (congrArg (fun b : ByteArray => b.data.toList) hA3)
  simp only at HA3
  clear hA3
  have hF : (⟨(msgBy m).toArray⟩ : ByteArray) = A0 ++ A1 ++ (A2 ++ A3) := by
    refine (ba_of ?_).symm
    simp only [ba_list, ← HA0.out, ← HA1.out, ← HA2.out, ← HA3.out]
    unfold msgBy
    rw [if_neg (by omega)]
    rw [if_pos hk]
    rw [hk, pkB_eq]
    simp only [List.append_assoc]
  have htot : (A0 ++ A1 ++ (A2 ++ A3)).size ≤ 6000 := by rw [← hF, bytes_size]; exact hle
  simp only [ByteArray.size_append] at htot
  rw [hF]
  have CM := fun W (hb : Below w.heap.size w W) => refMayMsg_any m W (hm.below hb)
  simp only [hM] at CM
  clear hF hle hR hM HA0 HA1 HA2 HA3
  have n1 : ¬ 9223372036854775807 < A0.size + A1.size := by omega
  have nm1 : ¬ 9223372036854775807 < (A0).size + A1.size := by first | omega | (simp only [ByteArray.size_append]; omega)
  have n2 : ¬ 9223372036854775807 < A0.size + A1.size + (A2.size + A3.size) := by omega
  have nm2 : ¬ 9223372036854775807 < (A0 ++ A1).size + ((A2 ++ A3)).size := by first | omega | (simp only [ByteArray.size_append]; omega)
  have s1 : ¬ 9223372036854775807 < A2.size + A3.size := by omega
  have e1 : (m.kd == 1) = false := by rw [hk]; rfl
  have e3 : (m.kd == 3) = false := by rw [hk]; rfl
  have e5 : (m.kd == 5) = false := by rw [hk]; rfl
  have e4 : decide (4 ≤ m.kd) = false := by rw [hk]; rfl
  clear hk htot
  go_enter Try.func20, Try.ntmps20
  go_upto_region 1 with fail
  refine wp_nameE _ (fun W1 hX => ?_)
  have hg : W1.heap[w.heap.size]? = some (.cells m.row 34 (0, 0)) := by rw [hX]; exact heap_push _ _ _
  have hbel : Below w.heap.size w W1 := by rw [hX]; exact Below.alloc (Below.refl _ _) (Nat.le_refl _) _
  clear hX
  have hgl : w.heap.size < W1.heap.size := (Array.getElem?_eq_some_iff.1 hg).1
  obtain ⟨q0, q1, q2, q3, q4, q5, q6, q7, q8, q9, q10, q11, q12, q13, q14, q15, q16, q17⟩ := msg_cells hg
  go_upto_region 11 with (first | (refine wpList_load_mid rfl 34 (.tmp 1) rfl w.heap.size 0 rfl m.row.toList _ (rangeAt_row5 hg) Try.underlying34 rfl (msg_info _) ?_; rw [Array.toArray_toList]) | (go_at_call 22; refine (CM _ hbel).mono ?_; rintro e w2 ⟨rfl, hb⟩; have hg := cells_of hg hb hgl; have hgl := Nat.lt_of_lt_of_le hgl hb.size; have hbel := hbel.trans (hb.mono hbel.size); obtain ⟨q0, q1, q2, q3, q4, q5, q6, q7, q8, q9, q10, q11, q12, q13, q14, q15, q16, q17⟩ := msg_cells hg; clear hb) | (go_at_call 60; first | ((with_reducible refine (P0 _).mono ?_); rintro e w2 ⟨rfl, hb⟩; have hg := cells_of hg hb hgl; have hgl := Nat.lt_of_lt_of_le hgl hb.size; have hbel := hbel.trans (hb.mono hbel.size); obtain ⟨q0, q1, q2, q3, q4, q5, q6, q7, q8, q9, q10, q11, q12, q13, q14, q15, q16, q17⟩ := msg_cells hg; clear hb)) | (go_at_call 62; first | ((with_reducible refine (P1 _).mono ?_); rintro e w2 ⟨rfl, hb⟩; have hg := cells_of hg hb hgl; have hgl := Nat.lt_of_lt_of_le hgl hb.size; have hbel := hbel.trans (hb.mono hbel.size); obtain ⟨q0, q1, q2, q3, q4, q5, q6, q7, q8, q9, q10, q11, q12, q13, q14, q15, q16, q17⟩ := msg_cells hg; clear hb)))
  have Q3 : ∀ n : Beyond w2, Calls Try.prog 64 #[.agg #[.int .i64 m.pct, .slice m.pa m.pn m.pc]] n.x fun e w' => e = .returned (.string A3) ∧ ∃ k : Beyond w2, w' = k.x := fun n => quiet_below (P3 n.x (hbel.trans (n.h.mono hbel.size)))
  obtain ⟨hcb, hfb⟩ := beyond_cells (W := w2)
  refine wp_region_below (by kernel_rfl) (by kernel_rfl) ?_
  repeat (go_big_quiet_step (first | (go_at_call 60; first | with_reducible exact quiet_below (P2 _)) | (go_at_call 64; first | with_reducible exact Q3 _)))
  intro w9 hw9
  have hb9 := beyond_below hw9
  clear hcb hfb hw9
  have hg := cells_of hg hb9 hgl
  have hgl := Nat.lt_of_lt_of_le hgl hb9.size
  have hbel := hbel.trans (hb9.mono hbel.size)
  obtain ⟨q0, q1, q2, q3, q4, q5, q6, q7, q8, q9, q10, q11, q12, q13, q14, q15, q16, q17⟩ := msg_cells hg
  go_wp2_with fail
  go_returns
  exact ⟨rfl, hbel⟩
set_option maxRecDepth 100000 in
set_option maxHeartbeats 6400000 in
theorem refEnc_3 (m : MsgV) (w : World) (hk : m.kd = 3) (hm : m.ok w) (hM : mayMsgB m = true) :
    Calls Try.prog 20 #[.agg m.row] w fun e w' => e = .returned (.tuple #[.string ⟨(msgBy m).toArray⟩, .int .i64 0]) ∧ Below w.heap.size w w' := by
  have hle := msgBy_le hM
  obtain ⟨_, _, hR⟩ := may_kd hM
  obtain ⟨r1, r2, r3, r4, r5, r6, r7, r8⟩ := rest_2 (by omega) hR
  have bd := mayK_boundsM r2
  have ra := r1 hk
  have P0 := fun W => putNum_any (m.kd) W
  unfold strV at P0
  obtain ⟨A0, hA0⟩ : ∃ x : ByteArray, (⟨(putL (m.kd)).toArray⟩ : ByteArray) = x := ⟨_, rfl⟩
  simp only [hA0] at P0
  have HA0 := Lib.hid (congrArg (fun b : ByteArray => b.data.toList) hA0)
  simp only at HA0
  clear hA0
  have P1 := fun W => refPutPk_any m.sp m.sc m.dp m.dc m.sq m.da m.th m.ta W (by omega) (by omega) (by omega)
  obtain ⟨A1, hA1⟩ : ∃ x : ByteArray, (⟨(pkB ((m.sp, m.sc), (m.dp, m.dc), m.sq, m.da, m.th, m.ta)).toArray⟩ : ByteArray) = x := ⟨_, rfl⟩
  simp only [hA1] at P1
  have HA1 := Lib.hid (congrArg (fun b : ByteArray => b.data.toList) hA1)
  simp only at HA1
  clear hA1
  have P2 := fun W => refPutText_any m.ack W (by omega)
  unfold strV at P2
  obtain ⟨A2, hA2⟩ : ∃ x : ByteArray, (⟨(putL (m.ack.size : Int) ++ m.ack.data.toList).toArray⟩ : ByteArray) = x := ⟨_, rfl⟩
  simp only [hA2] at P2
  have HA2 := Lib.hid (congrArg (fun b : ByteArray => b.data.toList) hA2)
  simp only at HA2
  clear hA2
  have P3 := fun W => putNum_any (m.he) W
  unfold strV at P3
  obtain ⟨A3, hA3⟩ : ∃ x : ByteArray, (⟨(putL (m.he)).toArray⟩ : ByteArray) = x := ⟨_, rfl⟩
  simp only [hA3] at P3
  have HA3 := Lib.hid (congrArg (fun b : ByteArray => b.data.toList) hA3)
  simp only at HA3
  clear hA3
  have P4 := fun W (hb : Below w.heap.size w W) => refPutPf_any m.pct m.pa m.pn m.pc m.pxs W (hm.p.below hb) hm.plen r7
  obtain ⟨A4, hA4⟩ : ∃ x : ByteArray, (⟨(pfBy m.pct m.pxs).toArray⟩ : ByteArray) = x := ⟨_, rfl⟩
  simp only [hA4] at P4
  have HA4 := Lib.hid (congrArg (fun b : ByteArray => b.data.toList) hA4)
  simp only at HA4
  clear hA4
  have hF : (⟨(msgBy m).toArray⟩ : ByteArray) = A0 ++ A1 ++ A2 ++ (A3 ++ A4) := by
    refine (ba_of ?_).symm
    simp only [ba_list, ← HA0.out, ← HA1.out, ← HA2.out, ← HA3.out, ← HA4.out]
    unfold msgBy
    rw [if_neg (by omega)]
    rw [if_neg (by omega)]
    rw [if_pos hk]
    rw [hk, pkB_eq]
    simp only [List.append_assoc]
  have htot : (A0 ++ A1 ++ A2 ++ (A3 ++ A4)).size ≤ 6000 := by rw [← hF, bytes_size]; exact hle
  simp only [ByteArray.size_append] at htot
  rw [hF]
  have CM := fun W (hb : Below w.heap.size w W) => refMayMsg_any m W (hm.below hb)
  simp only [hM] at CM
  clear hF hle hR hM HA0 HA1 HA2 HA3 HA4
  have n1 : ¬ 9223372036854775807 < A0.size + A1.size := by omega
  have nm1 : ¬ 9223372036854775807 < (A0).size + A1.size := by first | omega | (simp only [ByteArray.size_append]; omega)
  have n2 : ¬ 9223372036854775807 < A0.size + A1.size + A2.size := by omega
  have nm2 : ¬ 9223372036854775807 < (A0 ++ A1).size + A2.size := by first | omega | (simp only [ByteArray.size_append]; omega)
  have n3 : ¬ 9223372036854775807 < A0.size + A1.size + A2.size + (A3.size + A4.size) := by omega
  have nm3 : ¬ 9223372036854775807 < (A0 ++ A1 ++ A2).size + ((A3 ++ A4)).size := by first | omega | (simp only [ByteArray.size_append]; omega)
  have s1 : ¬ 9223372036854775807 < A3.size + A4.size := by omega
  have e1 : (m.kd == 1) = false := by rw [hk]; rfl
  have e3 : (m.kd == 3) = true := by rw [hk]; rfl
  have e5 : (m.kd == 5) = false := by rw [hk]; rfl
  have e4 : decide (4 ≤ m.kd) = false := by rw [hk]; rfl
  clear hk htot
  go_enter Try.func20, Try.ntmps20
  go_upto_region 1 with fail
  refine wp_nameE _ (fun W1 hX => ?_)
  have hg : W1.heap[w.heap.size]? = some (.cells m.row 34 (0, 0)) := by rw [hX]; exact heap_push _ _ _
  have hbel : Below w.heap.size w W1 := by rw [hX]; exact Below.alloc (Below.refl _ _) (Nat.le_refl _) _
  clear hX
  have hgl : w.heap.size < W1.heap.size := (Array.getElem?_eq_some_iff.1 hg).1
  obtain ⟨q0, q1, q2, q3, q4, q5, q6, q7, q8, q9, q10, q11, q12, q13, q14, q15, q16, q17⟩ := msg_cells hg
  go_upto_region 11 with (first | (refine wpList_load_mid rfl 34 (.tmp 1) rfl w.heap.size 0 rfl m.row.toList _ (rangeAt_row5 hg) Try.underlying34 rfl (msg_info _) ?_; rw [Array.toArray_toList]) | (go_at_call 22; refine (CM _ hbel).mono ?_; rintro e w2 ⟨rfl, hb⟩; have hg := cells_of hg hb hgl; have hgl := Nat.lt_of_lt_of_le hgl hb.size; have hbel := hbel.trans (hb.mono hbel.size); obtain ⟨q0, q1, q2, q3, q4, q5, q6, q7, q8, q9, q10, q11, q12, q13, q14, q15, q16, q17⟩ := msg_cells hg; clear hb) | (go_at_call 60; first | ((with_reducible refine (P0 _).mono ?_); rintro e w2 ⟨rfl, hb⟩; have hg := cells_of hg hb hgl; have hgl := Nat.lt_of_lt_of_le hgl hb.size; have hbel := hbel.trans (hb.mono hbel.size); obtain ⟨q0, q1, q2, q3, q4, q5, q6, q7, q8, q9, q10, q11, q12, q13, q14, q15, q16, q17⟩ := msg_cells hg; clear hb)) | (go_at_call 62; first | ((with_reducible refine (P1 _).mono ?_); rintro e w2 ⟨rfl, hb⟩; have hg := cells_of hg hb hgl; have hgl := Nat.lt_of_lt_of_le hgl hb.size; have hbel := hbel.trans (hb.mono hbel.size); obtain ⟨q0, q1, q2, q3, q4, q5, q6, q7, q8, q9, q10, q11, q12, q13, q14, q15, q16, q17⟩ := msg_cells hg; clear hb)) | (go_at_call 63; first | ((with_reducible refine (P2 _).mono ?_); rintro e w2 ⟨rfl, hb⟩; have hg := cells_of hg hb hgl; have hgl := Nat.lt_of_lt_of_le hgl hb.size; have hbel := hbel.trans (hb.mono hbel.size); obtain ⟨q0, q1, q2, q3, q4, q5, q6, q7, q8, q9, q10, q11, q12, q13, q14, q15, q16, q17⟩ := msg_cells hg; clear hb)))
  have Q4 : ∀ n : Beyond w2, Calls Try.prog 64 #[.agg #[.int .i64 m.pct, .slice m.pa m.pn m.pc]] n.x fun e w' => e = .returned (.string A4) ∧ ∃ k : Beyond w2, w' = k.x := fun n => quiet_below (P4 n.x (hbel.trans (n.h.mono hbel.size)))
  obtain ⟨hcb, hfb⟩ := beyond_cells (W := w2)
  refine wp_region_below (by kernel_rfl) (by kernel_rfl) ?_
  repeat (go_big_quiet_step (first | (go_at_call 60; first | with_reducible exact quiet_below (P3 _)) | (go_at_call 64; first | with_reducible exact Q4 _)))
  intro w9 hw9
  have hb9 := beyond_below hw9
  clear hcb hfb hw9
  have hg := cells_of hg hb9 hgl
  have hgl := Nat.lt_of_lt_of_le hgl hb9.size
  have hbel := hbel.trans (hb9.mono hbel.size)
  obtain ⟨q0, q1, q2, q3, q4, q5, q6, q7, q8, q9, q10, q11, q12, q13, q14, q15, q16, q17⟩ := msg_cells hg
  go_wp2_with fail
  go_returns
  exact ⟨rfl, hbel⟩
set_option maxRecDepth 100000 in
set_option maxHeartbeats 6400000 in
theorem refEnc_4 (m : MsgV) (w : World) (hk : m.kd = 4) (hm : m.ok w) (hM : mayMsgB m = true) :
    Calls Try.prog 20 #[.agg m.row] w fun e w' => e = .returned (.tuple #[.string ⟨(msgBy m).toArray⟩, .int .i64 0]) ∧ Below w.heap.size w w' := by
  have hle := msgBy_le hM
  obtain ⟨_, _, hR⟩ := may_kd hM
  obtain ⟨r1, r2, r3, r4, r5, r6, r7, r8⟩ := rest_2 (by omega) hR
  have bd := mayK_boundsM r2
  have P0 := fun W => putNum_any (m.kd) W
  unfold strV at P0
  obtain ⟨A0, hA0⟩ : ∃ x : ByteArray, (⟨(putL (m.kd)).toArray⟩ : ByteArray) = x := ⟨_, rfl⟩
  simp only [hA0] at P0
  have HA0 := Lib.hid (congrArg (fun b : ByteArray => b.data.toList) hA0)
  simp only at HA0
  clear hA0
  have P1 := fun W => refPutPk_any m.sp m.sc m.dp m.dc m.sq m.da m.th m.ta W (by omega) (by omega) (by omega)
  obtain ⟨A1, hA1⟩ : ∃ x : ByteArray, (⟨(pkB ((m.sp, m.sc), (m.dp, m.dc), m.sq, m.da, m.th, m.ta)).toArray⟩ : ByteArray) = x := ⟨_, rfl⟩
  simp only [hA1] at P1
  have HA1 := Lib.hid (congrArg (fun b : ByteArray => b.data.toList) hA1)
  simp only at HA1
  clear hA1
  have P2 := fun W => putNum_any (m.nx) W
  unfold strV at P2
  obtain ⟨A2, hA2⟩ : ∃ x : ByteArray, (⟨(putL (m.nx)).toArray⟩ : ByteArray) = x := ⟨_, rfl⟩
  simp only [hA2] at P2
  have HA2 := Lib.hid (congrArg (fun b : ByteArray => b.data.toList) hA2)
  simp only at HA2
  clear hA2
  have P3 := fun W => putNum_any (m.he) W
  unfold strV at P3
  obtain ⟨A3, hA3⟩ : ∃ x : ByteArray, (⟨(putL (m.he)).toArray⟩ : ByteArray) = x := ⟨_, rfl⟩
  simp only [hA3] at P3
  have HA3 := Lib.hid (congrArg (fun b : ByteArray => b.data.toList) hA3)
  simp only at HA3
  clear hA3
  have P4 := fun W (hb : Below w.heap.size w W) => refPutPf_any m.pct m.pa m.pn m.pc m.pxs W (hm.p.below hb) hm.plen r7
  obtain ⟨A4, hA4⟩ : ∃ x : ByteArray, (⟨(pfBy m.pct m.pxs).toArray⟩ : ByteArray) = x := ⟨_, rfl⟩
  simp only [hA4] at P4
  have HA4 := Lib.hid (congrArg (fun b : ByteArray => b.data.toList) hA4)
  simp only at HA4
  clear hA4
  have hF : (⟨(msgBy m).toArray⟩ : ByteArray) = A0 ++ A1 ++ A2 ++ (A3 ++ A4) := by
    refine (ba_of ?_).symm
    simp only [ba_list, ← HA0.out, ← HA1.out, ← HA2.out, ← HA3.out, ← HA4.out]
    unfold msgBy
    rw [if_neg (by omega)]
    rw [if_neg (by omega)]
    rw [if_neg (by omega)]
    rw [if_pos hk]
    rw [hk, pkB_eq]
    simp only [List.append_assoc]
  have htot : (A0 ++ A1 ++ A2 ++ (A3 ++ A4)).size ≤ 6000 := by rw [← hF, bytes_size]; exact hle
  simp only [ByteArray.size_append] at htot
  rw [hF]
  have CM := fun W (hb : Below w.heap.size w W) => refMayMsg_any m W (hm.below hb)
  simp only [hM] at CM
  clear hF hle hR hM HA0 HA1 HA2 HA3 HA4
  have n1 : ¬ 9223372036854775807 < A0.size + A1.size := by omega
  have nm1 : ¬ 9223372036854775807 < (A0).size + A1.size := by first | omega | (simp only [ByteArray.size_append]; omega)
  have n2 : ¬ 9223372036854775807 < A0.size + A1.size + A2.size := by omega
  have nm2 : ¬ 9223372036854775807 < (A0 ++ A1).size + A2.size := by first | omega | (simp only [ByteArray.size_append]; omega)
  have n3 : ¬ 9223372036854775807 < A0.size + A1.size + A2.size + (A3.size + A4.size) := by omega
  have nm3 : ¬ 9223372036854775807 < (A0 ++ A1 ++ A2).size + ((A3 ++ A4)).size := by first | omega | (simp only [ByteArray.size_append]; omega)
  have s1 : ¬ 9223372036854775807 < A3.size + A4.size := by omega
  have e1 : (m.kd == 1) = false := by rw [hk]; rfl
  have e3 : (m.kd == 3) = false := by rw [hk]; rfl
  have e5 : (m.kd == 5) = false := by rw [hk]; rfl
  have e4 : decide (4 ≤ m.kd) = true := by rw [hk]; rfl
  clear hk htot
  go_enter Try.func20, Try.ntmps20
  go_upto_region 1 with fail
  refine wp_nameE _ (fun W1 hX => ?_)
  have hg : W1.heap[w.heap.size]? = some (.cells m.row 34 (0, 0)) := by rw [hX]; exact heap_push _ _ _
  have hbel : Below w.heap.size w W1 := by rw [hX]; exact Below.alloc (Below.refl _ _) (Nat.le_refl _) _
  clear hX
  have hgl : w.heap.size < W1.heap.size := (Array.getElem?_eq_some_iff.1 hg).1
  obtain ⟨q0, q1, q2, q3, q4, q5, q6, q7, q8, q9, q10, q11, q12, q13, q14, q15, q16, q17⟩ := msg_cells hg
  go_upto_region 11 with (first | (refine wpList_load_mid rfl 34 (.tmp 1) rfl w.heap.size 0 rfl m.row.toList _ (rangeAt_row5 hg) Try.underlying34 rfl (msg_info _) ?_; rw [Array.toArray_toList]) | (go_at_call 22; refine (CM _ hbel).mono ?_; rintro e w2 ⟨rfl, hb⟩; have hg := cells_of hg hb hgl; have hgl := Nat.lt_of_lt_of_le hgl hb.size; have hbel := hbel.trans (hb.mono hbel.size); obtain ⟨q0, q1, q2, q3, q4, q5, q6, q7, q8, q9, q10, q11, q12, q13, q14, q15, q16, q17⟩ := msg_cells hg; clear hb) | (go_at_call 60; first | ((with_reducible refine (P0 _).mono ?_); rintro e w2 ⟨rfl, hb⟩; have hg := cells_of hg hb hgl; have hgl := Nat.lt_of_lt_of_le hgl hb.size; have hbel := hbel.trans (hb.mono hbel.size); obtain ⟨q0, q1, q2, q3, q4, q5, q6, q7, q8, q9, q10, q11, q12, q13, q14, q15, q16, q17⟩ := msg_cells hg; clear hb) | ((with_reducible refine (P2 _).mono ?_); rintro e w2 ⟨rfl, hb⟩; have hg := cells_of hg hb hgl; have hgl := Nat.lt_of_lt_of_le hgl hb.size; have hbel := hbel.trans (hb.mono hbel.size); obtain ⟨q0, q1, q2, q3, q4, q5, q6, q7, q8, q9, q10, q11, q12, q13, q14, q15, q16, q17⟩ := msg_cells hg; clear hb)) | (go_at_call 62; first | ((with_reducible refine (P1 _).mono ?_); rintro e w2 ⟨rfl, hb⟩; have hg := cells_of hg hb hgl; have hgl := Nat.lt_of_lt_of_le hgl hb.size; have hbel := hbel.trans (hb.mono hbel.size); obtain ⟨q0, q1, q2, q3, q4, q5, q6, q7, q8, q9, q10, q11, q12, q13, q14, q15, q16, q17⟩ := msg_cells hg; clear hb)))
  have Q4 : ∀ n : Beyond w2, Calls Try.prog 64 #[.agg #[.int .i64 m.pct, .slice m.pa m.pn m.pc]] n.x fun e w' => e = .returned (.string A4) ∧ ∃ k : Beyond w2, w' = k.x := fun n => quiet_below (P4 n.x (hbel.trans (n.h.mono hbel.size)))
  obtain ⟨hcb, hfb⟩ := beyond_cells (W := w2)
  refine wp_region_below (by kernel_rfl) (by kernel_rfl) ?_
  repeat (go_big_quiet_step (first | (go_at_call 60; first | with_reducible exact quiet_below (P3 _)) | (go_at_call 64; first | with_reducible exact Q4 _)))
  intro w9 hw9
  have hb9 := beyond_below hw9
  clear hcb hfb hw9
  have hg := cells_of hg hb9 hgl
  have hgl := Nat.lt_of_lt_of_le hgl hb9.size
  have hbel := hbel.trans (hb9.mono hbel.size)
  obtain ⟨q0, q1, q2, q3, q4, q5, q6, q7, q8, q9, q10, q11, q12, q13, q14, q15, q16, q17⟩ := msg_cells hg
  go_wp2_with fail
  go_returns
  exact ⟨rfl, hbel⟩
set_option maxRecDepth 100000 in
set_option maxHeartbeats 6400000 in
theorem refEnc_5 (m : MsgV) (w : World) (hk : m.kd = 5) (hm : m.ok w) (hM : mayMsgB m = true) :
    Calls Try.prog 20 #[.agg m.row] w fun e w' => e = .returned (.tuple #[.string ⟨(msgBy m).toArray⟩, .int .i64 0]) ∧ Below w.heap.size w w' := by
  have hle := msgBy_le hM
  obtain ⟨_, _, hR⟩ := may_kd hM
  obtain ⟨r1, r2, r3, r4, r5, r6, r7, r8⟩ := rest_2 (by omega) hR
  have bd := mayK_boundsM r2
  have P0 := fun W => putNum_any (m.kd) W
  unfold strV at P0
  obtain ⟨A0, hA0⟩ : ∃ x : ByteArray, (⟨(putL (m.kd)).toArray⟩ : ByteArray) = x := ⟨_, rfl⟩
  simp only [hA0] at P0
  have HA0 := Lib.hid (congrArg (fun b : ByteArray => b.data.toList) hA0)
  simp only at HA0
  clear hA0
  have P1 := fun W => refPutPk_any m.sp m.sc m.dp m.dc m.sq m.da m.th m.ta W (by omega) (by omega) (by omega)
  obtain ⟨A1, hA1⟩ : ∃ x : ByteArray, (⟨(pkB ((m.sp, m.sc), (m.dp, m.dc), m.sq, m.da, m.th, m.ta)).toArray⟩ : ByteArray) = x := ⟨_, rfl⟩
  simp only [hA1] at P1
  have HA1 := Lib.hid (congrArg (fun b : ByteArray => b.data.toList) hA1)
  simp only at HA1
  clear hA1
  have P2 := fun W => putNum_any (m.nx) W
  unfold strV at P2
  obtain ⟨A2, hA2⟩ : ∃ x : ByteArray, (⟨(putL (m.nx)).toArray⟩ : ByteArray) = x := ⟨_, rfl⟩
  simp only [hA2] at P2
  have HA2 := Lib.hid (congrArg (fun b : ByteArray => b.data.toList) hA2)
  simp only at HA2
  clear hA2
  have P3 := fun W => putNum_any (m.he) W
  unfold strV at P3
  obtain ⟨A3, hA3⟩ : ∃ x : ByteArray, (⟨(putL (m.he)).toArray⟩ : ByteArray) = x := ⟨_, rfl⟩
  simp only [hA3] at P3
  have HA3 := Lib.hid (congrArg (fun b : ByteArray => b.data.toList) hA3)
  simp only at HA3
  clear hA3
  have P4 := fun W (hb : Below w.heap.size w W) => refPutPf_any m.pct m.pa m.pn m.pc m.pxs W (hm.p.below hb) hm.plen r7
  obtain ⟨A4, hA4⟩ : ∃ x : ByteArray, (⟨(pfBy m.pct m.pxs).toArray⟩ : ByteArray) = x := ⟨_, rfl⟩
  simp only [hA4] at P4
  have HA4 := Lib.hid (congrArg (fun b : ByteArray => b.data.toList) hA4)
  simp only at HA4
  clear hA4
  have P5 := fun W (hb : Below w.heap.size w W) => refPutPf_any m.cct m.ca m.cn m.cc m.cxs W (hm.c.below hb) hm.clen r8
  obtain ⟨A5, hA5⟩ : ∃ x : ByteArray, (⟨(pfBy m.cct m.cxs).toArray⟩ : ByteArray) = x := ⟨_, rfl⟩
  simp only [hA5] at P5
  have HA5 := Lib.hid (congrArg (fun b : ByteArray => b.data.toList) hA5)
  simp only at HA5
  clear hA5
  have hF : (⟨(msgBy m).toArray⟩ : ByteArray) = A0 ++ A1 ++ A2 ++ (A3 ++ A4) ++ A5 := by
    refine (ba_of ?_).symm
    simp only [ba_list, ← HA0.out, ← HA1.out, ← HA2.out, ← HA3.out, ← HA4.out, ← HA5.out]
    unfold msgBy
    rw [if_neg (by omega)]
    rw [if_neg (by omega)]
    rw [if_neg (by omega)]
    rw [if_neg (by omega)]
    rw [hk, pkB_eq]
    simp only [List.append_assoc]
  have htot : (A0 ++ A1 ++ A2 ++ (A3 ++ A4) ++ A5).size ≤ 6000 := by rw [← hF, bytes_size]; exact hle
  simp only [ByteArray.size_append] at htot
  rw [hF]
  have CM := fun W (hb : Below w.heap.size w W) => refMayMsg_any m W (hm.below hb)
  simp only [hM] at CM
  clear hF hle hR hM HA0 HA1 HA2 HA3 HA4 HA5
  have n1 : ¬ 9223372036854775807 < A0.size + A1.size := by omega
  have nm1 : ¬ 9223372036854775807 < (A0).size + A1.size := by first | omega | (simp only [ByteArray.size_append]; omega)
  have n2 : ¬ 9223372036854775807 < A0.size + A1.size + A2.size := by omega
  have nm2 : ¬ 9223372036854775807 < (A0 ++ A1).size + A2.size := by first | omega | (simp only [ByteArray.size_append]; omega)
  have n3 : ¬ 9223372036854775807 < A0.size + A1.size + A2.size + (A3.size + A4.size) := by omega
  have nm3 : ¬ 9223372036854775807 < (A0 ++ A1 ++ A2).size + ((A3 ++ A4)).size := by first | omega | (simp only [ByteArray.size_append]; omega)
  have n4 : ¬ 9223372036854775807 < A0.size + A1.size + A2.size + (A3.size + A4.size) + A5.size := by omega
  have nm4 : ¬ 9223372036854775807 < (A0 ++ A1 ++ A2 ++ (A3 ++ A4)).size + A5.size := by first | omega | (simp only [ByteArray.size_append]; omega)
  have s1 : ¬ 9223372036854775807 < A3.size + A4.size := by omega
  have e1 : (m.kd == 1) = false := by rw [hk]; rfl
  have e3 : (m.kd == 3) = false := by rw [hk]; rfl
  have e5 : (m.kd == 5) = true := by rw [hk]; rfl
  have e4 : decide (4 ≤ m.kd) = true := by rw [hk]; rfl
  clear hk htot
  go_enter Try.func20, Try.ntmps20
  go_upto_region 1 with fail
  refine wp_nameE _ (fun W1 hX => ?_)
  have hg : W1.heap[w.heap.size]? = some (.cells m.row 34 (0, 0)) := by rw [hX]; exact heap_push _ _ _
  have hbel : Below w.heap.size w W1 := by rw [hX]; exact Below.alloc (Below.refl _ _) (Nat.le_refl _) _
  clear hX
  have hgl : w.heap.size < W1.heap.size := (Array.getElem?_eq_some_iff.1 hg).1
  obtain ⟨q0, q1, q2, q3, q4, q5, q6, q7, q8, q9, q10, q11, q12, q13, q14, q15, q16, q17⟩ := msg_cells hg
  go_upto_region 11 with (first | (refine wpList_load_mid rfl 34 (.tmp 1) rfl w.heap.size 0 rfl m.row.toList _ (rangeAt_row5 hg) Try.underlying34 rfl (msg_info _) ?_; rw [Array.toArray_toList]) | (go_at_call 22; refine (CM _ hbel).mono ?_; rintro e w2 ⟨rfl, hb⟩; have hg := cells_of hg hb hgl; have hgl := Nat.lt_of_lt_of_le hgl hb.size; have hbel := hbel.trans (hb.mono hbel.size); obtain ⟨q0, q1, q2, q3, q4, q5, q6, q7, q8, q9, q10, q11, q12, q13, q14, q15, q16, q17⟩ := msg_cells hg; clear hb) | (go_at_call 60; first | ((with_reducible refine (P0 _).mono ?_); rintro e w2 ⟨rfl, hb⟩; have hg := cells_of hg hb hgl; have hgl := Nat.lt_of_lt_of_le hgl hb.size; have hbel := hbel.trans (hb.mono hbel.size); obtain ⟨q0, q1, q2, q3, q4, q5, q6, q7, q8, q9, q10, q11, q12, q13, q14, q15, q16, q17⟩ := msg_cells hg; clear hb) | ((with_reducible refine (P2 _).mono ?_); rintro e w2 ⟨rfl, hb⟩; have hg := cells_of hg hb hgl; have hgl := Nat.lt_of_lt_of_le hgl hb.size; have hbel := hbel.trans (hb.mono hbel.size); obtain ⟨q0, q1, q2, q3, q4, q5, q6, q7, q8, q9, q10, q11, q12, q13, q14, q15, q16, q17⟩ := msg_cells hg; clear hb)) | (go_at_call 62; first | ((with_reducible refine (P1 _).mono ?_); rintro e w2 ⟨rfl, hb⟩; have hg := cells_of hg hb hgl; have hgl := Nat.lt_of_lt_of_le hgl hb.size; have hbel := hbel.trans (hb.mono hbel.size); obtain ⟨q0, q1, q2, q3, q4, q5, q6, q7, q8, q9, q10, q11, q12, q13, q14, q15, q16, q17⟩ := msg_cells hg; clear hb)))
  have Q4 : ∀ n : Beyond w2, Calls Try.prog 64 #[.agg #[.int .i64 m.pct, .slice m.pa m.pn m.pc]] n.x fun e w' => e = .returned (.string A4) ∧ ∃ k : Beyond w2, w' = k.x := fun n => quiet_below (P4 n.x (hbel.trans (n.h.mono hbel.size)))
  obtain ⟨hcb, hfb⟩ := beyond_cells (W := w2)
  refine wp_region_below (by kernel_rfl) (by kernel_rfl) ?_
  repeat (go_big_quiet_step (first | (go_at_call 60; first | with_reducible exact quiet_below (P3 _)) | (go_at_call 64; first | with_reducible exact Q4 _)))
  intro w9 hw9
  have hb9 := beyond_below hw9
  clear hcb hfb hw9
  have hg := cells_of hg hb9 hgl
  have hgl := Nat.lt_of_lt_of_le hgl hb9.size
  have hbel := hbel.trans (hb9.mono hbel.size)
  obtain ⟨q0, q1, q2, q3, q4, q5, q6, q7, q8, q9, q10, q11, q12, q13, q14, q15, q16, q17⟩ := msg_cells hg
  go_wp2_with (first | (go_at_call 64; first | ((with_reducible refine (P5 _ hbel).mono ?_); rintro e w2 ⟨rfl, hb⟩; have hg := cells_of hg hb hgl; have hgl := Nat.lt_of_lt_of_le hgl hb.size; have hbel := hbel.trans (hb.mono hbel.size); obtain ⟨q0, q1, q2, q3, q4, q5, q6, q7, q8, q9, q10, q11, q12, q13, q14, q15, q16, q17⟩ := msg_cells hg; clear hb)))
  go_returns
  exact ⟨rfl, hbel⟩
set_option maxRecDepth 100000 in
set_option maxHeartbeats 3200000 in
theorem refEncMsg_any (m : MsgV) (w : World) (hm : m.ok w) :
    Calls Try.prog 20 #[.agg m.row] w fun e w' => e = .returned (encMsg m) ∧ Below w.heap.size w w' := by
  cases hM : mayMsgB m
  · rw [show encMsg m = .tuple #[.string ⟨#[]⟩, .int .i64 1] by unfold encMsg; rw [hM]; rfl]
    have CM := fun W (hb : Below w.heap.size w W) => refMayMsg_any m W (hm.below hb)
    simp only [hM] at CM
    clear hM
    go_enter Try.func20, Try.ntmps20
    go_upto_region 1 with fail
    refine wp_nameE _ (fun W1 hX => ?_)
    have hg : W1.heap[w.heap.size]? = some (.cells m.row 34 (0, 0)) := by rw [hX]; exact heap_push _ _ _
    have hbel : Below w.heap.size w W1 := by rw [hX]; exact Below.alloc (Below.refl _ _) (Nat.le_refl _) _
    clear hX
    have hgl : w.heap.size < W1.heap.size := (Array.getElem?_eq_some_iff.1 hg).1
    obtain ⟨q0, q1, q2, q3, q4, q5, q6, q7, q8, q9, q10, q11, q12, q13, q14, q15, q16, q17⟩ := msg_cells hg
    go_wp2_with (first | (refine wpList_load_mid rfl 34 (.tmp 1) rfl w.heap.size 0 rfl m.row.toList _ (rangeAt_row5 hg) Try.underlying34 rfl (msg_info _) ?_; rw [Array.toArray_toList]) | (go_at_call 22; refine (CM _ hbel).mono ?_; rintro e w2 ⟨rfl, hb⟩; have hg := cells_of hg hb hgl; have hgl := Nat.lt_of_lt_of_le hgl hb.size; have hbel := hbel.trans (hb.mono hbel.size); obtain ⟨q0, q1, q2, q3, q4, q5, q6, q7, q8, q9, q10, q11, q12, q13, q14, q15, q16, q17⟩ := msg_cells hg; clear hb))
    go_returns
    exact ⟨rfl, hbel⟩
  · rw [show encMsg m = .tuple #[.string ⟨(msgBy m).toArray⟩, .int .i64 0] by unfold encMsg; rw [hM]; rfl]
    obtain ⟨k1, k5, _⟩ := may_kd hM
    by_cases h1 : m.kd = 1
    · exact refEnc_1 m w h1 hm hM
    by_cases h2 : m.kd = 2
    · exact refEnc_2 m w h2 hm hM
    by_cases h3 : m.kd = 3
    · exact refEnc_3 m w h3 hm hM
    by_cases h4 : m.kd = 4
    · exact refEnc_4 m w h4 hm hM
    exact refEnc_5 m w (by omega) hm hM
end Go.Proofs.Ythipnkbfdkmhaaa
