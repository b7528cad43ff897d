/- sha: a digest takes a text. -/
import Derived.Test.YtpledhipdiephaaDoorSt3
import Derived.Test.YtpledhipdiephaaDoorSha3
import Derived.Laws.CopyRow
import Derived.WalkKit
import Derived.ProofKit
import Derived.Handy
import Derived.Below
import Derived.Lib.Hide
import Derived.IntWalk
import Derived.Outline
import Derived.WalkLawsBesides
import Derived.WalkSpells
namespace Go.Proofs.YtpledhipdiephaaDoor
open Go.RowKit
attribute [local go_sem] strV
set_option linter.unusedVariables false
theorem run_copy_mid {P : Program} (w : World) (dT sT ty elem : TypeId) (g o n c m : Nat) (s : ByteArray) (cur : Array Value) (t : TypeId)
    (hu : P.underlying dT = some (.slice elem)) (hs : (P.info? elem).map (·.size) = some 1) (hg : w.heap[g]? = some (.cells cur t (0, 0))) (hm : Nat.min s.size n = m) (hle : o + m ≤ cur.size) :
    (Builtin.copy_ #[dT, sT] ty #[.slice (some ⟨g, o, none⟩) n c, .string s]).run P w =
      .ok (goInt m) (w.setRow g (cur.toList.take o ++ Lib.byteCells (s.data.toList.take m) ++ cur.toList.drop (o + m)).toArray) := by
  have hms : m ≤ s.size := by rw [← hm]; exact Nat.min_le_left _ _
  have hlen : (Lib.byteCells (s.data.toList.take m)).length = m := by rw [Lib.byteCells_length, List.length_take, ← Lib.size_eq]; omega
  have hst := run_storeCells_at P g o t (Lib.byteCells (s.data.toList.take m)) 0 cur w hg (by rw [hlen]; simpa using hle) (Lib.byteCells_one _)
  have htk : List.take m (List.map (fun b : UInt8 => Value.int IntKind.u8 (b.toNat : Int)) s.data.toList) = Lib.byteCells (s.data.toList.take m) := by
    rw [← List.map_take]; rfl
  rw [hlen] at hst
  simp only [Nat.add_zero] at hst
  cases hq : P.info? elem with
  | none => simp [hq] at hs
  | some i =>
    simp [Builtin.copy_, run_underlying hu, Builtin.lenOf, Builtin.firstCells, sizeOf, typeInfo, hq, hm]
    rw [htk, hst]
    simp [Result.andThen]
theorem wpList_copy_mid {P : Program} {w : World} {ops : Array Oper} {rest : List Oper} {o : Oper} {a : Act} {Q : Exit → Act → World → Prop}
    (hgd : o.guard = none) (d x : Operand) (dT sT : TypeId) (hop : o.op = Op.call { callee := Callee.builtin Builtin.copy, args := #[d, x], argTypes := #[dT, sT] })
    (elem : TypeId) (hu : P.underlying dT = some (.slice elem)) (hs : (P.info? elem).map (·.size) = some 1)
    (g off n c m : Nat) (hd : a.eval d = .slice (some ⟨g, off, none⟩) n c) (s : ByteArray) (hx : a.eval x = .string s) (cur : Array Value) (t : TypeId)
    (hg : w.heap[g]? = some (.cells cur t (0, 0))) (hm : Nat.min s.size n = m) (hle : off + m ≤ cur.size)
    (h : wpList P ops Q rest (a.put o.dst (goInt m)) (w.setRow g (cur.toList.take off ++ Lib.byteCells (s.data.toList.take m) ++ cur.toList.drop (off + m)).toArray)) : wpList P ops Q (o :: rest) a w := by
  refine wpList_plain hgd fun K hK' => ?_
  have hrun := run_copy_mid (P := P) w dT sT o.type elem g off n c m s cur t hu hs hg hm hle
  unfold Oper.wp
  simp [execOp, hop, resolve, invoke, builtin, hd, hx, hrun, Result.andThen]
  exact hK' _ _ (by rw [List.append_assoc] at h; exact h)
theorem drow_copy {S : List Int} {B X : List UInt8} {u : Nat} {uz z : Int} (hS : S.length = 8) (hB : B.length = 64) (hX : u + X.length ≤ 64) :
    ((drow S B uz z).toList.take (8 + u) ++ Lib.byteCells X ++ (drow S B uz z).toList.drop (8 + u + X.length)).toArray = drow S (B.take u ++ X ++ B.drop (u + X.length)) uz z := by
  have hSl : (S.map (Value.int .u32)).length = 8 := by simpa using hS
  have hBl : (Lib.byteCells B).length = 64 := by rw [Lib.byteCells_length]; exact hB
  unfold drow
  dsimp only
  rw [← hSl, List.take_length_add_append, Nat.add_assoc, List.drop_length_add_append, List.take_append_of_le_length (by omega), List.drop_append_of_le_length (by omega)]
  congr 1
  simp [Lib.byteCells, List.map_append, List.map_take, List.map_drop]
theorem drow_len {S : List Int} {B : List UInt8} {u z : Int} (hS : S.length = 8) (hB : B.length = 64) : (drow S B u z).size = 74 := by
  unfold drow; simp [Lib.byteCells_length, hS, hB]
theorem drow_used {S : List Int} {B : List UInt8} {u z x : Int} (hS : S.length = 8) (hB : B.length = 64) : (drow S B u z).setIfInBounds 72 (.int .i64 x) = drow S B x z := by
  have hBl : (Lib.byteCells B).length = 64 := by rw [Lib.byteCells_length]; exact hB
  unfold drow
  rw [List.setIfInBounds_toArray, List.set_append_right _ _ (by simp; omega), List.set_append_right _ _ (by simp; omega)]
  simp [hS, hBl]
theorem drow_size {S : List Int} {B : List UInt8} {u z x : Int} (hS : S.length = 8) (hB : B.length = 64) : (drow S B u z).setIfInBounds 73 (.int .i64 x) = drow S B u x := by
  have hBl : (Lib.byteCells B).length = 64 := by rw [Lib.byteCells_length]; exact hB
  unfold drow
  rw [List.setIfInBounds_toArray, List.set_append_right _ _ (by simp; omega), List.set_append_right _ _ (by simp; omega)]
  simp [hS, hBl]
theorem drow_at72 {S : List Int} {B : List UInt8} {u z : Int} (hS : S.length = 8) (hB : B.length = 64) : (drow S B u z)[72]? = some (.int .i64 u) := by
  have hBl : (Lib.byteCells B).length = 64 := by rw [Lib.byteCells_length]; exact hB
  unfold drow
  rw [List.getElem?_toArray, List.getElem?_append_right (by simp; omega), List.getElem?_append_right (by simp; omega)]
  simp [hS, hBl]
theorem drow_at73 {S : List Int} {B : List UInt8} {u z : Int} (hS : S.length = 8) (hB : B.length = 64) : (drow S B u z)[73]? = some (.int .i64 z) := by
  have hBl : (Lib.byteCells B).length = 64 := by rw [Lib.byteCells_length]; exact hB
  unfold drow
  rw [List.getElem?_toArray, List.getElem?_append_right (by simp; omega), List.getElem?_append_right (by simp; omega)]
  simp [hS, hBl]
/-- The sum behind k blocks of a text. -/
def hs (T : List UInt8) : Nat → List Int
  | 0 => stab
  | k + 1 => comp (hs T k) ((T.drop (64 * k)).take 64)
theorem hs_len (T : List UInt8) (k : Nat) : (hs T k).length = 8 := by cases k <;> rfl
theorem hs_append {T X : List UInt8} : ∀ k, 64 * k ≤ T.length → hs (T ++ X) k = hs T k := by
  intro k
  induction k with
  | zero => intro _; rfl
  | succ k ih =>
    intro h
    rw [hs, hs, ih (by omega), List.drop_append_of_le_length (by omega), List.take_append_of_le_length (by rw [List.length_drop]; omega)]
/-- A digest that has taken the text T: its cells; z: the bytes that it has counted. -/
structure DG (b : Nat) (w : World) (T : List UInt8) (z : Int) (B : List UInt8) (q u : Nat) : Prop where
  len : T.length = 64 * q + u
  lt : u < 64
  buf : B.length = 64
  pre : B.take u = T.drop (64 * q)
  row : w.heap[b]? = some (.cells (drow (hs T q) B u z) 156 (0, 0))
theorem SW.kept {b : Nat} {w w' : World} (h : SW w) (hb : 2 < b) (hk : Kept b w w') : SW w' := by
  have hs := h.size
  exact h.of_blocks (hk.block 0 (by omega) (by omega)) (hk.block 2 hs (by omega))
theorem Kept.setRowB {b : Nat} {w w1 : World} (h : Kept b w w1) (cs : Array Value) : Kept b w (w1.setRow b cs) :=
  ⟨h.os, h.tape, h.output, by simpa [World.setRow] using h.size, fun k hk hne => (setRow_other w1 b k cs hne).trans (h.block k hk hne)⟩
def lenV : Value → Nat
  | .string s => s.size
  | _ => 0
theorem dg_less {b : Nat} {w w' : World} {T X : List UInt8} {z z' : Int} {B : List UInt8} {q u : Nat} (h : DG b w T z B q u) (hX : u + X.length < 64)
    (hr : w'.heap[b]? = some (.cells (drow (hs T q) (B.take u ++ X ++ B.drop (u + X.length)) ((u + X.length : Nat) : Int) z') 156 (0, 0))) : DG b w' (T ++ X) z' (B.take u ++ X ++ B.drop (u + X.length)) q (u + X.length) := by
  have h1 := h.len; have h2 := h.buf; have h3 := h.lt
  have hl : (B.take u ++ X).length = u + X.length := by rw [List.length_append, List.length_take]; omega
  refine ⟨by rw [List.length_append]; omega, hX, ?_, ?_, by rw [hs_append q (by omega)]; exact hr⟩
  · rw [List.length_append, hl, List.length_drop]; omega
  · rw [← hl, List.take_left, List.drop_append_of_le_length (by omega), h.pre]
theorem dg_full {b : Nat} {w w' : World} {T X : List UInt8} {z z' : Int} {B : List UInt8} {q u : Nat} (h : DG b w T z B q u) (hX : u + X.length = 64)
    (hr : w'.heap[b]? = some (.cells (drow (comp (hs T q) (B.take u ++ X)) (B.take u ++ X) 0 z') 156 (0, 0))) : DG b w' (T ++ X) z' (B.take u ++ X) (q + 1) 0 := by
  have h1 := h.len; have h2 := h.buf; have h3 := h.lt
  have hl : (B.take u ++ X).length = 64 := by rw [List.length_append, List.length_take]; omega
  have hT : (T ++ X).length = 64 * (q + 1) := by rw [List.length_append]; omega
  have hd : (T ++ X).drop (64 * q) = B.take u ++ X := by rw [List.drop_append_of_le_length (by omega), h.pre]
  refine ⟨by omega, by omega, hl, ?_, ?_⟩
  · rw [List.take_zero, List.drop_eq_nil_of_le (by omega)]
  · rw [hs, hs_append q (by omega), hd, List.take_of_length_le (by omega)]
    exact hr
set_option maxRecDepth 100000 in
set_option maxHeartbeats 6400000 in
theorem add_any (b : Nat) (w : World) (T : List UInt8) (z : Int) (B0 : List UInt8) (q0 u0 : Nat) (s : ByteArray) (h : DG b w T z B0 q0 u0) (hW : SW w) (hb2 : 2 < b) (hz0 : 0 ≤ z) (hz : z + s.size ≤ 4000000000000) :
    Calls Tryd.prog 103 #[.pointer (some ⟨b, 0, none⟩), .string s] w fun e w' => e = .returned (.tuple #[]) ∧ (∃ B q u, DG b w' (T ++ s.data.toList) (z + s.size) B q u) ∧ Kept b w w' := by
  have hlt : b < w.heap.size := (Array.getElem?_eq_some_iff.1 h.row).1
  have c0 : w.cell? ⟨b, 73, none⟩ = some (.int .i64 z) := by rw [cell_heap h.row, drow_at73 (hs_len _ _) h.buf]
  have f0 : w.frozen? ⟨b, 73, none⟩ = false := frozen_heap h.row 73
  have e0 : IntKind.i64.wrap (z + (s.size : Int)) = z + (s.size : Int) := IntWalk.i64_in _ (by omega)
  go_enter Tryd.func103, Tryd.ntmps103
  go_upto_region 1 with fail
  refine wp_nameE _ (fun W hX => ?_)
  have hK : Kept b w W := by rw [hX]; exact (Kept.of (Below.refl _ _)).setCell _ _
  have hd : W.heap[b]? = some (.cells (drow (hs T q0) B0 u0 (z + s.size)) 156 (0, 0)) := by
    rw [hX]; have := row_put5 (w := w) (k := 73) (v := .int .i64 (z + s.size)) h.row; rw [drow_size (hs_len _ _) h.buf] at this; exact this
  have hG : DG b W T (z + s.size) B0 q0 u0 := ⟨h.len, h.lt, h.buf, h.pre, hd⟩
  clear hX hd c0 f0 h
  go_loopw [1] (fun v wr => ∃ (s2 : ByteArray) (T1 B : List UInt8) (q u : Nat), Hid (T1 ++ s2.data.toList = T ++ s.data.toList) ∧ s2.size ≤ s.size ∧ DG b wr T1 (z + s.size) B q u ∧ Kept b w wr ∧ v = .string s2) (fun v _ => lenV v)
  case atStart => exact ⟨s, T, B0, q0, u0, Lib.hid rfl, Nat.le_refl _, hG, hK, rfl⟩
  case round =>
    clear hG hK
    obtain ⟨s2, T1, B, q, u, HT, hs2, hG, hK, rfl⟩ := hrel
    by_cases h0 : s2.size = 0
    · have d0 : decide (0 < (s2.size : Int)) = false := decide_eq_false (by omega)
      go_wp2
      go_end0
      have hnil : s2.data.toList = [] := List.eq_nil_of_length_eq_zero (by rw [str_len]; exact h0)
      have hT := HT.out
      rw [hnil, List.append_nil] at hT
      rw [hT] at hG
      exact ⟨rfl, ⟨B, q, u, hG⟩, hK⟩
    · have d0 : decide (0 < (s2.size : Int)) = true := decide_eq_true (by omega)
      have hul := hG.lt
      have hrow := hG.row
      have hBl := hG.buf
      have hHl := hs_len T1 q
      have c1 : wr.cell? ⟨b, 72, none⟩ = some (.int .i64 u) := by rw [cell_heap hrow, drow_at72 hHl hBl]
      have n1 : (0 : Int) ≤ (u : Int) := by omega
      have n2 : (u : Int) ≤ 64 := by omega
      have n3 : ((u : Nat) : Int).toNat = u := by omega
      obtain ⟨m, hm⟩ : ∃ m, Nat.min s2.size (64 - u) = m := ⟨_, rfl⟩
      have hm1 : m ≤ s2.size := by rw [← hm]; exact Nat.min_le_left _ _
      have hm2 : m ≤ 64 - u := by rw [← hm]; exact Nat.min_le_right _ _
      have hm0 : 0 < m := by rw [← hm]; exact Nat.lt_min.2 ⟨by omega, by omega⟩
      have hXl : (s2.data.toList.take m).length = m := by rw [List.length_take, str_len]; omega
      go_upto_region 2 with fail
      obtain ⟨hcb, hfb⟩ := beyond_cells (W := wr)
      have hbs : b < wr.heap.size := (Array.getElem?_eq_some_iff.1 hrow).1
      refine wp_region_below_tail 9 (by kernel_rfl) (by kernel_rfl) ?_
      simp only [List.take_succ_cons, List.take_zero, List.drop_succ_cons, List.drop_zero]
      repeat (go_big_quiet_step (fail))
      intro w9 hw9
      have hb9 := beyond_below hw9
      have hrow := cells_of hrow hb9 hbs
      have hK := hK.trans (Kept.of hb9)
      clear hcb hfb hw9 hb9 c1 hbs
      go_upto_region 3 with (refine wpList_copy_mid rfl (.tmp 24) (.tmp 25) 159 9 rfl 5 Tryd.underlying159 (by kernel_rfl) b (8 + u) (64 - u) (64 - u) m (by rfl) s2 (by rfl) _ _ hrow hm (by rw [drow_len hHl hBl]; omega) ?_)
      refine wp_nameE _ (fun V1 hX => ?_)
      obtain ⟨X, hXd⟩ : ∃ X, s2.data.toList.take m = X := ⟨_, rfl⟩
      rw [hXd] at hX hXl
      have hr1 : V1.heap[b]? = some (.cells (drow (hs T1 q) (B.take u ++ X ++ B.drop (u + m)) u (z + s.size)) 156 (0, 0)) := by
        rw [hX, setRow_heap _ _ _ _ _ _ hrow, ← List.append_assoc]
        have := drow_copy (S := hs T1 q) (B := B) (X := X) (u := u) (uz := u) (z := z + s.size) hHl hBl (by omega)
        rw [hXl] at this
        rw [this]
      have hK : Kept b w V1 := by rw [hX]; exact hK.setRowB _
      clear hX hrow
      have hB1 : (B.take u ++ X ++ B.drop (u + m)).length = 64 := by rw [List.length_append, List.length_append, List.length_take, List.length_drop, hXl]; omega
      have c1 : V1.cell? ⟨b, 72, none⟩ = some (.int .i64 u) := by rw [cell_heap hr1, drow_at72 hHl hB1]
      have f1 : V1.frozen? ⟨b, 72, none⟩ = false := frozen_heap hr1 72
      have m1 : (0 : Int) ≤ (m : Int) := by omega
      have m2 : (m : Int) ≤ (s2.size : Int) := by omega
      have m3 : ((m : Nat) : Int).toNat = m := by omega
      have e1 : IntKind.i64.wrap ((u : Int) + (m : Int)) = (u : Int) + (m : Int) := IntWalk.i64_in _ (by omega)
      have hrest : X ++ (s2.extract m s2.size).data.toList = s2.data.toList := by
        rw [← hXd]; simp [ByteArray.data_extract]
        rw [List.take_of_length_le (l := List.drop m s2.data.toList) (by rw [List.length_drop, str_len]; exact Nat.le_refl _), List.take_append_drop]
      have hrl : (s2.extract m s2.size).size = s2.size - m := by simp
      have HT2 : Hid ((T1 ++ X) ++ (s2.extract m s2.size).data.toList = T ++ s.data.toList) := Lib.hid (by rw [List.append_assoc, hrest]; exact HT.out)
      clear HT
      by_cases hful : u + m = 64
      · have d1 : ((u : Int) + (m : Int) == 64) = true := by rw [beq_iff_eq]; omega
        go_upto_region 5 with fail
        refine wp_nameE _ (fun V2 hX => ?_)
        have hB2 : B.take u ++ X ++ B.drop (u + m) = B.take u ++ X := by rw [List.drop_eq_nil_of_le (by omega), List.append_nil]
        rw [hB2] at hr1 hB1
        have hr2 : V2.heap[b]? = some (.cells (drow (hs T1 q) (B.take u ++ X) ((u : Int) + (m : Int)) (z + s.size)) 156 (0, 0)) := by
          rw [hX]; have := row_put5 (w := V1) (k := 72) (v := .int .i64 ((u : Int) + (m : Int))) hr1; rw [drow_used hHl hB1] at this; exact this
        have hK : Kept b w V2 := by rw [hX]; exact hK.setCell _ _
        clear hX hr1 c1 f1
        have c2 : V2.cell? ⟨b, 72, none⟩ = some (.int .i64 ((u : Int) + (m : Int))) := by rw [cell_heap hr2, drow_at72 hHl hB1]
        have CC := compress_any b V2 _ _ _ _ hr2 hHl hB1 (hW.kept hb2 hK) hb2
        go_upto_region 7 with (go_at_call 111; refine CC.mono ?_; rintro e w3 ⟨rfl, hr3, hK3⟩)
        have hK := hK.trans hK3
        have c3 : w3.cell? ⟨b, 72, none⟩ = some (.int .i64 ((u : Int) + (m : Int))) := by rw [cell_heap hr3, drow_at72 rfl hB1]
        have f3 : w3.frozen? ⟨b, 72, none⟩ = false := frozen_heap hr3 72
        go_wp2
        go_roundw
        case rel =>
          have hr4 := row_put5 (w := w3) (k := 72) (v := .int .i64 0) hr3
          rw [drow_used rfl hB1] at hr4
          exact ⟨s2.extract m s2.size, T1 ++ X, B.take u ++ X, q + 1, 0, HT2, by omega, dg_full hG (by omega) hr4, hK.setCell _ _, rfl⟩
        case measure => show (s2.extract m s2.size).size < s2.size; omega
      · have d1 : ((u : Int) + (m : Int) == 64) = false := beq_eq_false_iff_ne.2 (by omega)
        go_upto_region 5 with fail
        refine wp_nameE _ (fun V2 hX => ?_)
        have hr2 : V2.heap[b]? = some (.cells (drow (hs T1 q) (B.take u ++ X ++ B.drop (u + m)) ((u : Int) + (m : Int)) (z + s.size)) 156 (0, 0)) := by
          rw [hX]; have := row_put5 (w := V1) (k := 72) (v := .int .i64 ((u : Int) + (m : Int))) hr1; rw [drow_used hHl hB1] at this; exact this
        have hK : Kept b w V2 := by rw [hX]; exact hK.setCell _ _
        clear hX hr1 c1 f1
        have c2 : V2.cell? ⟨b, 72, none⟩ = some (.int .i64 ((u : Int) + (m : Int))) := by rw [cell_heap hr2, drow_at72 hHl hB1]
        go_wp2
        go_roundw
        case rel =>
          have hg := dg_less (X := X) (w' := V2) (z' := z + s.size) hG (by omega) (by rw [hXl]; exact hr2)
          exact ⟨s2.extract m s2.size, T1 ++ X, _, q, _, HT2, by omega, hg, hK, rfl⟩
        case measure => show (s2.extract m s2.size).size < s2.size; omega
end Go.Proofs.YtpledhipdiephaaDoor
