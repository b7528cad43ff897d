/- sha: a digest ends. -/
import Derived.Test.YtpledhipdiephaaDoorSt3
import Derived.Test.YtpledhipdiephaaDoorSha4
import Derived.Test.YtpledhipdiephaaDoorT1
import Derived.WalkKit
import Derived.ProofKit
import Derived.Handy
import Derived.Below
import Derived.Lib.Hide
import Derived.IntWalk
import Derived.Outline
import Derived.WalkLawsBesides
import Derived.WalkSpells
namespace Go.Proofs.YtpledhipdiephaaDoor
open Go.RowKit
attribute [local go_sem] strV
set_option linter.unusedVariables false
def u8 (x : Int) : UInt8 := UInt8.ofNat (x % 256).toNat
theorem u8_val (x : Int) : ((u8 x).toNat : Int) = x % 256 := by
  unfold u8
  rw [UInt8.toNat_ofNat']
  omega
theorem u8_mod (x : Int) : u8 (x % 256) = u8 x := by unfold u8; rw [Int.emod_emod_of_dvd _ (Int.dvd_refl _)]
def remV : Option Value → Nat
  | some (.int _ u) => (120 - u.toNat) % 64
  | _ => 0
theorem run_index_arr {P : Program} (w : World) (t e : TypeId) (n : Nat) (kk : IntKind) (cs : Array Value) (k : IntKind) (i : Nat) (v : Value) (hu : P.underlying t = some (.array n e)) (he : P.underlying e = some (.int kk))
    (hs : (P.info? e).map (·.size) = some 1) (hi : i < n) (hv : cs[i]? = some v) : (Instr.index t (.agg cs) (.int k (i : Int))).run P w = .ok v w := by
  cases hq : P.info? e with
  | none => simp [hq] at hs
  | some inf =>
    have h1 : inf.size = 1 := by simpa [hq] using hs
    have hi' : (0 : Int) ≤ (i : Int) ∧ (i : Int) < (n : Int) := by omega
    simp [Instr.index, asIntOf, run_underlying hu, Result.andThen, sizeOf, typeInfo, hq, h1, hi, part, isAgg, run_underlying he, hv]
theorem wpList_index_arr {P : Program} {w : World} {ops : Array Oper} {rest : List Oper} {o : Oper} {a : Act} {Q : Exit → Act → World → Prop}
    (hgd : o.guard = none) (x ix : Operand) (t e : TypeId) (n : Nat) (kk : IntKind) (hop : o.op = Op.index t x ix) (hu : P.underlying t = some (.array n e)) (he : P.underlying e = some (.int kk))
    (hs : (P.info? e).map (·.size) = some 1) (cs : Array Value) (hx : a.eval x = .agg cs) (k : IntKind) (i : Nat) (hix : a.eval ix = .int k (i : Int)) (hi : i < n) (v : Value) (hv : cs[i]? = some v)
    (h : wpList P ops Q rest (a.put o.dst v) w) : wpList P ops Q (o :: rest) a w := by
  refine wpList_plain hgd fun K hK' => ?_
  have hrun := run_index_arr (P := P) w t e n kk cs k i v hu he hs hi hv
  unfold Oper.wp
  simp [execOp, hop, hx, hix, hrun, Result.andThen]
  exact hK' _ _ h
/-- The bytes of a sum. -/
def out32 (S : List Int) : List UInt8 := S.flatMap fun x => [u8 (x / 16777216), u8 (x / 65536), u8 (x / 256), u8 x]
theorem out32_len {S : List Int} (h : S.length = 8) : (out32 S).length = 32 := by
  obtain ⟨a, b, c, d, e, f, g, i, rfl⟩ := list8 h; rfl
/-- How many zeros are laid behind a text of n bytes. -/
def padN (n : Nat) : Nat := (119 - n % 64) % 64
/-- The eight bytes of a length. -/
def lenB (n : Nat) : List UInt8 := [u8 ((n : Int) * 8 / 72057594037927936), u8 ((n : Int) * 8 / 281474976710656), u8 ((n : Int) * 8 / 1099511627776), u8 ((n : Int) * 8 / 4294967296), u8 ((n : Int) * 8 / 16777216), u8 ((n : Int) * 8 / 65536), u8 ((n : Int) * 8 / 256), u8 ((n : Int) * 8)]
def padT (T : List UInt8) (k : Nat) : List UInt8 := T ++ [128] ++ List.replicate k 0
def shaFull (T : List UInt8) : List UInt8 := padT T (padN T.length) ++ lenB T.length
/-- The digest of a text. -/
def shaF (T : List UInt8) : List UInt8 := out32 (hs (shaFull T) ((shaFull T).length / 64))
theorem shaF_len (T : List UInt8) : (shaF T).length = 32 := out32_len (hs_len _ _)
theorem padT_len (T : List UInt8) (k : Nat) : (padT T k).length = T.length + 1 + k := by simp [padT]; omega
theorem pad_mod (T : List UInt8) {k : Nat} (hk : k ≤ padN T.length) : (T.length + 1 + k) % 64 = 56 ↔ k = padN T.length := by
  unfold padN at *; omega
theorem padT_succ (T : List UInt8) (k : Nat) : padT T k ++ [0] = padT T (k + 1) := by
  unfold padT; rw [List.append_assoc, ← List.replicate_succ']
theorem drow_bset {S : List Int} {B : List UInt8} {u z : Int} {k : Nat} {x : Int} (hS : S.length = 8) (hk : k < B.length) (hx : 0 ≤ x) (hx2 : x < 256) : (drow S B u z).setIfInBounds (8 + k) (.int .u8 x) = drow S (B.set k (u8 x)) u z := by
  unfold drow
  have hB : (Lib.byteCells B).length = B.length := Lib.byteCells_length _
  rw [List.setIfInBounds_toArray, List.set_append_right _ _ (by simp; omega), List.set_append_left _ _ (by simp; omega)]
  have e : (Value.int .u8 x) = (Value.int .u8 ((u8 x).toNat : Int)) := by rw [u8_val]; congr 1; omega
  have e2 : 8 + k - (S.map (Value.int .u32)).length = k := by simp; omega
  rw [e2, e]
  simp [Lib.byteCells, List.map_set]
theorem bset_step {B L : List UInt8} {i : Nat} {x : UInt8} (hB : B.length = 64) (hL : L.length = 8) (hi : i < 8) (hx : L[i]? = some x) :
    (B.take 56 ++ L.take i ++ B.drop (56 + i)).set (56 + i) x = B.take 56 ++ L.take (i + 1) ++ B.drop (56 + (i + 1)) := by
  have h1 : (B.take 56 ++ L.take i).length = 56 + i := by rw [List.length_append, List.length_take, List.length_take]; omega
  rw [List.set_append_right _ _ (by omega), h1, Nat.sub_self, List.take_add_one (l := L), hx, List.drop_eq_getElem_cons (i := 56 + i) (by omega)]
  simp [Nat.add_assoc]
theorem dg_comp {b : Nat} {w : World} {T X : List UInt8} {z : Int} {B : List UInt8} {q u : Nat} (h : DG b w T z B q u) (hX : u + X.length = 64) :
    comp (hs T q) (B.take u ++ X) = hs (T ++ X) (q + 1) ∧ (T ++ X).length / 64 = q + 1 := by
  have h1 := h.len; have h2 := h.buf; have h3 := h.lt
  have hl : (B.take u ++ X).length = 64 := by rw [List.length_append, List.length_take]; omega
  have hd : (T ++ X).drop (64 * q) = B.take u ++ X := by rw [List.drop_append_of_le_length (by omega), h.pre]
  refine ⟨by rw [hs, hs_append q (by omega), hd, List.take_of_length_le (l := B.take u ++ X) (by omega)], ?_⟩
  rw [List.length_append]; omega
theorem Kept.setOut {b g k : Nat} {w w1 : World} (h : Kept b w w1) (hg : w.heap.size ≤ g) (v : Value) : Kept b w (w1.setCell ⟨g, k, none⟩ v) :=
  ⟨h.os, h.tape, h.output, by rw [World.size_setCell]; exact h.size, fun j hj hne => by
    show (w1.heap.modify g _)[j]? = _
    rw [Array.getElem?_modify, if_neg (by omega)]; exact h.block j hj hne⟩
theorem prow_far {l : List UInt8} (h : l.length = 32) {k j : Nat} (hk : k ≤ j) (hj : j < 32) : (prow l k)[j]? = some (.int .u8 0) := by
  have e : (Lib.byteCells (l.take k)).length = k := by rw [Lib.byteCells_length, List.length_take]; omega
  simp only [prow, List.getElem?_toArray]
  rw [List.getElem?_append_right (by omega), e, List.getElem?_replicate, if_pos (by omega)]
theorem prow_u8 {l : List UInt8} {k : Nat} {x : Int} (h : l.length = 32) (hk : k < 32) (hx : l[k]? = some (u8 x)) : (prow l k).setIfInBounds k (.int .u8 (x % 256)) = prow l (k + 1) := by
  rw [← u8_val]; exact prow_step h hk hx
set_option maxRecDepth 100000 in
set_option maxHeartbeats 6400000 in
theorem end_any (b : Nat) (w : World) (T : List UInt8) (B0 : List UInt8) (q0 u0 : Nat) (h : DG b w T (T.length : Int) B0 q0 u0) (hW : SW w) (hb2 : 2 < b) (hz : T.length ≤ 2000000000000) :
    Calls Tryd.prog 104 #[.pointer (some ⟨b, 0, none⟩)] w fun e w' => e = .returned (.agg (hrow (shaF T))) ∧ Kept b w w' := by
  have hlt : b < w.heap.size := (Array.getElem?_eq_some_iff.1 h.row).1
  obtain ⟨n, hn⟩ : ∃ n, T.length = n := ⟨_, rfl⟩
  rw [hn] at h hz
  have g0 : (w.alloc (.cells #[Value.int .u8 0, Value.int .u8 0, Value.int .u8 0, Value.int .u8 0, Value.int .u8 0, Value.int .u8 0, Value.int .u8 0, Value.int .u8 0, Value.int .u8 0, Value.int .u8 0, Value.int .u8 0, Value.int .u8 0, Value.int .u8 0, Value.int .u8 0, Value.int .u8 0, Value.int .u8 0, Value.int .u8 0, Value.int .u8 0, Value.int .u8 0, Value.int .u8 0, Value.int .u8 0, Value.int .u8 0, Value.int .u8 0, Value.int .u8 0, Value.int .u8 0, Value.int .u8 0, Value.int .u8 0, Value.int .u8 0, Value.int .u8 0, Value.int .u8 0, Value.int .u8 0, Value.int .u8 0] 35)).heap[w.heap.size]? = some (.cells #[Value.int .u8 0, Value.int .u8 0, Value.int .u8 0, Value.int .u8 0, Value.int .u8 0, Value.int .u8 0, Value.int .u8 0, Value.int .u8 0, Value.int .u8 0, Value.int .u8 0, Value.int .u8 0, Value.int .u8 0, Value.int .u8 0, Value.int .u8 0, Value.int .u8 0, Value.int .u8 0, Value.int .u8 0, Value.int .u8 0, Value.int .u8 0, Value.int .u8 0, Value.int .u8 0, Value.int .u8 0, Value.int .u8 0, Value.int .u8 0, Value.int .u8 0, Value.int .u8 0, Value.int .u8 0, Value.int .u8 0, Value.int .u8 0, Value.int .u8 0, Value.int .u8 0, Value.int .u8 0] 35 (0, 0)) := heap_push _ _ _
  have hbA : Below w.heap.size w (w.alloc (.cells #[Value.int .u8 0, Value.int .u8 0, Value.int .u8 0, Value.int .u8 0, Value.int .u8 0, Value.int .u8 0, Value.int .u8 0, Value.int .u8 0, Value.int .u8 0, Value.int .u8 0, Value.int .u8 0, Value.int .u8 0, Value.int .u8 0, Value.int .u8 0, Value.int .u8 0, Value.int .u8 0, Value.int .u8 0, Value.int .u8 0, Value.int .u8 0, Value.int .u8 0, Value.int .u8 0, Value.int .u8 0, Value.int .u8 0, Value.int .u8 0, Value.int .u8 0, Value.int .u8 0, Value.int .u8 0, Value.int .u8 0, Value.int .u8 0, Value.int .u8 0, Value.int .u8 0, Value.int .u8 0] 35)) := Below.alloc (Below.refl _ _) (Nat.le_refl _) _
  go_enter Tryd.func104, Tryd.ntmps104
  go_upto_region 1 with fail
  refine wp_nameE _ (fun W hX => ?_)
  have y0 : W.heap[w.heap.size]? = some (.cells #[Value.int .u8 0, Value.int .u8 0, Value.int .u8 0, Value.int .u8 0, Value.int .u8 0, Value.int .u8 0, Value.int .u8 0, Value.int .u8 0, Value.int .u8 0, Value.int .u8 0, Value.int .u8 0, Value.int .u8 0, Value.int .u8 0, Value.int .u8 0, Value.int .u8 0, Value.int .u8 0, Value.int .u8 0, Value.int .u8 0, Value.int .u8 0, Value.int .u8 0, Value.int .u8 0, Value.int .u8 0, Value.int .u8 0, Value.int .u8 0, Value.int .u8 0, Value.int .u8 0, Value.int .u8 0, Value.int .u8 0, Value.int .u8 0, Value.int .u8 0, Value.int .u8 0, Value.int .u8 0] 35 (0, 0)) := by rw [hX]; exact g0
  have hbel : Below w.heap.size w W := by rw [hX]; exact hbA
  have hG : DG b W T n B0 q0 u0 := ⟨h.len, h.lt, h.buf, h.pre, cells_of h.row hbel hlt⟩
  have hK : Kept b w W := Kept.of hbel
  have hW := hW.below hbel
  clear hX g0 hbA h hbel
  have c0 : W.cell? ⟨b, 73, none⟩ = some (.int .i64 n) := by rw [cell_heap hG.row, drow_at73 (hs_len _ _) hG.buf]
  have e1 : IntKind.u64.wrap (n : Int) = n := by rw [IntKind.wrap_u64]; omega
  have e2 : IntKind.u64.wrap ((n : Int) * 8) = (n : Int) * 8 := by rw [IntKind.wrap_u64]; omega
  have e3 : (n : Int) % 18446744073709551616 = n := by omega
  have e4 : (n : Int) * 8 % 18446744073709551616 = (n : Int) * 8 := by omega
  have s128 : (⟨#[128]⟩ : ByteArray).size = 1 := rfl
  have CA := add_any b W T n B0 q0 u0 ⟨#[128]⟩ hG hW hb2 (by omega) (by rw [s128]; omega)
  go_upto_region 3 with (go_at_call 103; refine CA.mono ?_; rintro e w1 ⟨rfl, hG1, hK1⟩)
  obtain ⟨B1, q1, u1, hG1⟩ := hG1
  have hpk : padT T 0 = T ++ [128] := by simp [padT]
  rw [← hpk] at hG1
  have hK0 : Kept b W w1 := hK1
  clear hK1 CA c0 hG hpk
  go_loopw [] (fun wr => ∃ (k : Nat) (B : List UInt8) (q u : Nat), k ≤ padN n ∧ DG b wr (padT T k) ((n : Int) + ((1 : Nat) : Int) + (k : Int)) B q u ∧ Kept b W wr) (fun W => remV (W.cell? ⟨b, 72, none⟩))
  case atStart => exact ⟨0, B1, q1, u1, Nat.zero_le _, by have e : (((⟨#[128]⟩ : ByteArray).size : Nat) : Int) = 1 := rfl; (try rw [e] at hG1); simpa using hG1, hK0⟩
  case round =>
    clear hG1 hK0
    obtain ⟨k, B, q, u, hk, hG, hKW⟩ := hrel
    have hml := hG.len
    rw [padT_len, hn] at hml
    have hul := hG.lt
    have hpm := pad_mod T (k := k) (by rw [hn]; exact hk)
    rw [hn] at hpm
    have c1 : wr.cell? ⟨b, 72, none⟩ = some (.int .i64 u) := by rw [cell_heap hG.row, drow_at72 (hs_len _ _) hG.buf]
    by_cases hu : u = 56
    · have hkp : k = padN n := hpm.1 (by omega)
      subst hu
      have d1 : (((56 : Nat) : Int) == 56) = true := rfl
      go_upto_region 5 with fail
      go_wp2
      obtain ⟨LB, hLB⟩ : ∃ l, lenB n = l := ⟨_, rfl⟩
      have hLl : LB.length = 8 := by rw [← hLB]; rfl
      have hBl := hG.buf
      have hHl := hs_len (padT T k) q
      go_loopw [23] (fun v wr => ∃ i : Nat, i ≤ 8 ∧ wr.heap[b]? = some (.cells (drow (hs (padT T k) q) (B.take 56 ++ LB.take i ++ B.drop (56 + i)) ((56 : Nat) : Int) ((n : Int) + ((1 : Nat) : Int) + (k : Int))) 156 (0, 0)) ∧ Kept b W wr ∧ v = .int .i64 i) (fun v _ => 8 - (intOf v).toNat)
      case atStart => exact ⟨0, by omega, by rw [List.take_zero, List.append_nil, List.take_append_drop]; exact hG.row, hKW, rfl⟩
      case round =>
        clear c1 hKW
        obtain ⟨i, hi, hr, hKW, rfl⟩ := hrel
        have hBi : (B.take 56 ++ LB.take i ++ B.drop (56 + i)).length = 64 := by simp only [List.length_append, List.length_take, List.length_drop]; omega
        by_cases hi8 : i < 8
        · rcases (show i = 0 ∨ i = 1 ∨ i = 2 ∨ i = 3 ∨ i = 4 ∨ i = 5 ∨ i = 6 ∨ i = 7 by omega) with rfl | rfl | rfl | rfl | rfl | rfl | rfl | rfl
          · have cc : wr.cell? ⟨b, 64, none⟩ = some (.int .u8 (((B.take 56 ++ LB.take 0 ++ B.drop (56 + 0)).getD 56 0).toNat : Int)) := by rw [cell_heap hr]; exact drow_buf (k := 56) hHl (by omega)
            have fc : wr.frozen? ⟨b, 64, none⟩ = false := frozen_heap hr 64
            go_wp2
            go_region
            all_goals go_wp2
            go_roundw
            case rel =>
              have h3 := row_put5 (w := wr.drew) (k := 8 + 56) (v := .int .u8 ((n : Int) * 8 / 72057594037927936)) hr
              rw [drow_bset hHl (by omega) (by omega) (by omega), bset_step hBl hLl (by omega) (x := u8 ((n : Int) * 8 / 72057594037927936)) (by rw [← hLB]; rfl)] at h3
              exact ⟨1, by omega, h3, (hKW.setCell _ _).drew, by go_num⟩
            case measure => (simp [intOf])
          · have cc : wr.cell? ⟨b, 65, none⟩ = some (.int .u8 (((B.take 56 ++ LB.take 1 ++ B.drop (56 + 1)).getD 57 0).toNat : Int)) := by rw [cell_heap hr]; exact drow_buf (k := 57) hHl (by omega)
            have fc : wr.frozen? ⟨b, 65, none⟩ = false := frozen_heap hr 65
            go_wp2
            go_region
            all_goals go_wp2
            go_roundw
            case rel =>
              have h3 := row_put5 (w := wr.drew) (k := 8 + 57) (v := .int .u8 ((n : Int) * 8 / 281474976710656)) hr
              rw [drow_bset hHl (by omega) (by omega) (by omega), bset_step hBl hLl (by omega) (x := u8 ((n : Int) * 8 / 281474976710656)) (by rw [← hLB]; rfl)] at h3
              exact ⟨2, by omega, h3, (hKW.setCell _ _).drew, by go_num⟩
            case measure => (simp [intOf])
          · have cc : wr.cell? ⟨b, 66, none⟩ = some (.int .u8 (((B.take 56 ++ LB.take 2 ++ B.drop (56 + 2)).getD 58 0).toNat : Int)) := by rw [cell_heap hr]; exact drow_buf (k := 58) hHl (by omega)
            have fc : wr.frozen? ⟨b, 66, none⟩ = false := frozen_heap hr 66
            go_wp2
            go_region
            all_goals go_wp2
            go_roundw
            case rel =>
              have h3 := row_put5 (w := wr.drew) (k := 8 + 58) (v := .int .u8 ((n : Int) * 8 / 1099511627776)) hr
              rw [drow_bset hHl (by omega) (by omega) (by omega), bset_step hBl hLl (by omega) (x := u8 ((n : Int) * 8 / 1099511627776)) (by rw [← hLB]; rfl)] at h3
              exact ⟨3, by omega, h3, (hKW.setCell _ _).drew, by go_num⟩
            case measure => (simp [intOf])
          · have cc : wr.cell? ⟨b, 67, none⟩ = some (.int .u8 (((B.take 56 ++ LB.take 3 ++ B.drop (56 + 3)).getD 59 0).toNat : Int)) := by rw [cell_heap hr]; exact drow_buf (k := 59) hHl (by omega)
            have fc : wr.frozen? ⟨b, 67, none⟩ = false := frozen_heap hr 67
            go_wp2
            go_region
            all_goals go_wp2
            go_roundw
            case rel =>
              have h3 := row_put5 (w := wr.drew) (k := 8 + 59) (v := .int .u8 (((n : Int) * 8 / 4294967296) % 256)) hr
              rw [drow_bset hHl (by omega) (Int.emod_nonneg _ (by decide)) (Int.emod_lt_of_pos _ (by decide)), bset_step hBl hLl (by omega) (x := u8 ((n : Int) * 8 / 4294967296 % 256)) (by rw [← hLB]; show some (u8 ((n : Int) * 8 / 4294967296)) = _; rw [u8_mod])] at h3
              exact ⟨4, by omega, h3, (hKW.setCell _ _).drew, by go_num⟩
            case measure => (simp [intOf])
          · have cc : wr.cell? ⟨b, 68, none⟩ = some (.int .u8 (((B.take 56 ++ LB.take 4 ++ B.drop (56 + 4)).getD 60 0).toNat : Int)) := by rw [cell_heap hr]; exact drow_buf (k := 60) hHl (by omega)
            have fc : wr.frozen? ⟨b, 68, none⟩ = false := frozen_heap hr 68
            go_wp2
            go_region
            all_goals go_wp2
            go_roundw
            case rel =>
              have h3 := row_put5 (w := wr.drew) (k := 8 + 60) (v := .int .u8 (((n : Int) * 8 / 16777216) % 256)) hr
              rw [drow_bset hHl (by omega) (Int.emod_nonneg _ (by decide)) (Int.emod_lt_of_pos _ (by decide)), bset_step hBl hLl (by omega) (x := u8 ((n : Int) * 8 / 16777216 % 256)) (by rw [← hLB]; show some (u8 ((n : Int) * 8 / 16777216)) = _; rw [u8_mod])] at h3
              exact ⟨5, by omega, h3, (hKW.setCell _ _).drew, by go_num⟩
            case measure => (simp [intOf])
          · have cc : wr.cell? ⟨b, 69, none⟩ = some (.int .u8 (((B.take 56 ++ LB.take 5 ++ B.drop (56 + 5)).getD 61 0).toNat : Int)) := by rw [cell_heap hr]; exact drow_buf (k := 61) hHl (by omega)
            have fc : wr.frozen? ⟨b, 69, none⟩ = false := frozen_heap hr 69
            go_wp2
            go_region
            all_goals go_wp2
            go_roundw
            case rel =>
              have h3 := row_put5 (w := wr.drew) (k := 8 + 61) (v := .int .u8 (((n : Int) * 8 / 65536) % 256)) hr
              rw [drow_bset hHl (by omega) (Int.emod_nonneg _ (by decide)) (Int.emod_lt_of_pos _ (by decide)), bset_step hBl hLl (by omega) (x := u8 ((n : Int) * 8 / 65536 % 256)) (by rw [← hLB]; show some (u8 ((n : Int) * 8 / 65536)) = _; rw [u8_mod])] at h3
              exact ⟨6, by omega, h3, (hKW.setCell _ _).drew, by go_num⟩
            case measure => (simp [intOf])
          · have cc : wr.cell? ⟨b, 70, none⟩ = some (.int .u8 (((B.take 56 ++ LB.take 6 ++ B.drop (56 + 6)).getD 62 0).toNat : Int)) := by rw [cell_heap hr]; exact drow_buf (k := 62) hHl (by omega)
            have fc : wr.frozen? ⟨b, 70, none⟩ = false := frozen_heap hr 70
            go_wp2
            go_region
            all_goals go_wp2
            go_roundw
            case rel =>
              have h3 := row_put5 (w := wr.drew) (k := 8 + 62) (v := .int .u8 (((n : Int) * 8 / 256) % 256)) hr
              rw [drow_bset hHl (by omega) (Int.emod_nonneg _ (by decide)) (Int.emod_lt_of_pos _ (by decide)), bset_step hBl hLl (by omega) (x := u8 ((n : Int) * 8 / 256 % 256)) (by rw [← hLB]; show some (u8 ((n : Int) * 8 / 256)) = _; rw [u8_mod])] at h3
              exact ⟨7, by omega, h3, (hKW.setCell _ _).drew, by go_num⟩
            case measure => (simp [intOf])
          · have cc : wr.cell? ⟨b, 71, none⟩ = some (.int .u8 (((B.take 56 ++ LB.take 7 ++ B.drop (56 + 7)).getD 63 0).toNat : Int)) := by rw [cell_heap hr]; exact drow_buf (k := 63) hHl (by omega)
            have fc : wr.frozen? ⟨b, 71, none⟩ = false := frozen_heap hr 71
            go_wp2
            go_region
            all_goals go_wp2
            go_roundw
            case rel =>
              have h3 := row_put5 (w := wr.drew) (k := 8 + 63) (v := .int .u8 (((n : Int) * 8) % 256)) hr
              rw [drow_bset hHl (by omega) (Int.emod_nonneg _ (by decide)) (Int.emod_lt_of_pos _ (by decide)), bset_step hBl hLl (by omega) (x := u8 ((n : Int) * 8 % 256)) (by rw [← hLB]; show some (u8 ((n : Int) * 8)) = _; rw [u8_mod])] at h3
              exact ⟨8, by omega, h3, (hKW.setCell _ _).drew, by go_num⟩
            case measure => (simp [intOf])
        · obtain rfl : i = 8 := by omega
          rw [List.take_of_length_le (l := LB) (by omega), show B.drop (56 + 8) = [] from List.drop_eq_nil_of_le (by omega), List.append_nil] at hr hBi
          have CC := compress_any b wr _ _ _ _ hr hHl hBi (hW.kept hb2 hKW) hb2
          have d2 : decide (((8 : Nat) : Int) < 8) = false := rfl
          go_upto_region 11 with (go_at_call 111; refine CC.mono ?_; rintro e w3 ⟨rfl, hr3, hK3⟩)
          have hfin : comp (hs (padT T k) q) (B.take 56 ++ LB) = hs (shaFull T) ((shaFull T).length / 64) := by
            have hq := dg_comp (X := LB) hG (by omega)
            have hF : shaFull T = padT T k ++ LB := by unfold shaFull; rw [hn, hLB, ← hkp]
            rw [hF, hq.1, hq.2]
          obtain ⟨s0, s1, s2, s3, s4, s5, s6, s7, hS8⟩ := list8 (hs_len (shaFull T) ((shaFull T).length / 64))
          have HO : Hid (shaF T = out32 [s0, s1, s2, s3, s4, s5, s6, s7]) := Lib.hid (by unfold shaF; rw [hS8])
          rw [hfin, hS8] at hr3
          have hKW := hKW.trans hK3
          clear hr CC hK3 hfin hS8 hG hLB hml hpm
          have hOl : (out32 [s0, s1, s2, s3, s4, s5, s6, s7]).length = 32 := rfl
          have g1 : (w3.alloc (.cells #[Value.int .u8 0, Value.int .u8 0, Value.int .u8 0, Value.int .u8 0, Value.int .u8 0, Value.int .u8 0, Value.int .u8 0, Value.int .u8 0, Value.int .u8 0, Value.int .u8 0, Value.int .u8 0, Value.int .u8 0, Value.int .u8 0, Value.int .u8 0, Value.int .u8 0, Value.int .u8 0, Value.int .u8 0, Value.int .u8 0, Value.int .u8 0, Value.int .u8 0, Value.int .u8 0, Value.int .u8 0, Value.int .u8 0, Value.int .u8 0, Value.int .u8 0, Value.int .u8 0, Value.int .u8 0, Value.int .u8 0, Value.int .u8 0, Value.int .u8 0, Value.int .u8 0, Value.int .u8 0] 35)).heap[w3.heap.size]? = some (.cells (prow (out32 [s0, s1, s2, s3, s4, s5, s6, s7]) 0) 35 (0, 0)) := heap_push _ _ _
          have hbA : Below w3.heap.size w3 (w3.alloc (.cells #[Value.int .u8 0, Value.int .u8 0, Value.int .u8 0, Value.int .u8 0, Value.int .u8 0, Value.int .u8 0, Value.int .u8 0, Value.int .u8 0, Value.int .u8 0, Value.int .u8 0, Value.int .u8 0, Value.int .u8 0, Value.int .u8 0, Value.int .u8 0, Value.int .u8 0, Value.int .u8 0, Value.int .u8 0, Value.int .u8 0, Value.int .u8 0, Value.int .u8 0, Value.int .u8 0, Value.int .u8 0, Value.int .u8 0, Value.int .u8 0, Value.int .u8 0, Value.int .u8 0, Value.int .u8 0, Value.int .u8 0, Value.int .u8 0, Value.int .u8 0, Value.int .u8 0, Value.int .u8 0] 35)) := Below.alloc (Below.refl _ _) (Nat.le_refl _) _
          go_upto_region 12 with fail
          refine wp_nameE _ (fun W4 hX => ?_)
          have hb4 : Below w3.heap.size w3 W4 := by rw [hX]; exact hbA
          have y1 : W4.heap[w3.heap.size]? = some (.cells (prow (out32 [s0, s1, s2, s3, s4, s5, s6, s7]) 0) 35 (0, 0)) := by rw [hX]; exact g1
          have hr4 := cells_of hr3 hb4 (Array.getElem?_eq_some_iff.1 hr3).1
          have hl3 : W.heap.size ≤ w3.heap.size := hKW.size
          have hlW : w.heap.size < W.heap.size := (Array.getElem?_eq_some_iff.1 y0).1
          have hne : w.heap.size ≠ b := by omega
          have hKW := hKW.trans (Kept.of hb4)
          clear hX g1 hbA hr3 hb4
          have hrg : W4.rangeAt b 0 [.int .u32 s0, .int .u32 s1, .int .u32 s2, .int .u32 s3, .int .u32 s4, .int .u32 s5, .int .u32 s6, .int .u32 s7] := fun j v hv => by
            have hj : j < 8 := (List.getElem?_eq_some_iff.1 hv).1
            have := rangeAt_row5 hr4 j v (by unfold drow; dsimp only; rw [List.getElem?_append_left (by simpa using hj)]; exact hv)
            exact this
          go_upto_region 13 with (refine wpList_load_mid rfl 153 (.tmp 43) rfl b 0 rfl _ _ hrg Tryd.underlying153 rfl (by kernel_rfl) ?_)
          go_loopw [45] (fun v wr => ∃ i : Nat, i ≤ 8 ∧ wr.heap[w3.heap.size]? = some (.cells (prow (out32 [s0, s1, s2, s3, s4, s5, s6, s7]) (4 * i)) 35 (0, 0)) ∧ Kept b W wr ∧ v = .int .i64 i) (fun v _ => 8 - (intOf v).toNat)
          case atStart => exact ⟨0, by omega, y1, hKW, rfl⟩
          case round =>
            clear y1 hKW hrg hr4
            obtain ⟨i, hi, y1, hKW, rfl⟩ := hrel
            by_cases hi8 : i < 8
            · rcases (show i = 0 ∨ i = 1 ∨ i = 2 ∨ i = 3 ∨ i = 4 ∨ i = 5 ∨ i = 6 ∨ i = 7 by omega) with rfl | rfl | rfl | rfl | rfl | rfl | rfl | rfl
              · have c0 : wr.cell? ⟨w3.heap.size, 0, none⟩ = some (.int .u8 0) := by rw [cell_heap y1]; exact prow_far hOl (by omega) (by omega)
                have c1 : wr.cell? ⟨w3.heap.size, 1, none⟩ = some (.int .u8 0) := by rw [cell_heap y1]; exact prow_far hOl (by omega) (by omega)
                have c2 : wr.cell? ⟨w3.heap.size, 2, none⟩ = some (.int .u8 0) := by rw [cell_heap y1]; exact prow_far hOl (by omega) (by omega)
                have c3 : wr.cell? ⟨w3.heap.size, 3, none⟩ = some (.int .u8 0) := by rw [cell_heap y1]; exact prow_far hOl (by omega) (by omega)
                have f0 : wr.frozen? ⟨w3.heap.size, 0, none⟩ = false := frozen_heap y1 0
                have f1 : wr.frozen? ⟨w3.heap.size, 1, none⟩ = false := frozen_heap y1 1
                have f2 : wr.frozen? ⟨w3.heap.size, 2, none⟩ = false := frozen_heap y1 2
                have f3 : wr.frozen? ⟨w3.heap.size, 3, none⟩ = false := frozen_heap y1 3
                go_upto_region 14 with fail
                go_wp2_with (refine wpList_index_arr rfl (.tmp 44) (.tmp 45) 153 152 8 .u32 rfl Tryd.underlying153 Tryd.underlying152 (by kernel_rfl) _ (by rfl) .i64 0 (by rfl) (by decide) (.int .u32 s0) (by rfl) ?_)
                go_roundw
                case rel =>
                  have p0 := row_put5 (k := 0) (v := .int .u8 ((s0 / 16777216) % 256)) y1
                  rw [show 4 * 0 = 0 from rfl, prow_u8 hOl (show (0 : Nat) < 32 by decide) (x := (s0 / 16777216)) (by rfl)] at p0
                  have p1 := row_put5 (k := 1) (v := .int .u8 ((s0 / 65536) % 256)) p0
                  rw [prow_u8 hOl (show (1 : Nat) < 32 by decide) (x := (s0 / 65536)) (by rfl)] at p1
                  have p2 := row_put5 (k := 2) (v := .int .u8 ((s0 / 256) % 256)) p1
                  rw [prow_u8 hOl (show (2 : Nat) < 32 by decide) (x := (s0 / 256)) (by rfl)] at p2
                  have p3 := row_put5 (k := 3) (v := .int .u8 (s0 % 256)) p2
                  rw [prow_u8 hOl (show (3 : Nat) < 32 by decide) (x := s0) (by rfl)] at p3
                  exact ⟨1, by omega, p3, (((hKW.setOut hl3 _).setOut hl3 _).setOut hl3 _).setOut hl3 _, by go_num⟩
                case measure => (simp [intOf])
              · have c0 : wr.cell? ⟨w3.heap.size, 4, none⟩ = some (.int .u8 0) := by rw [cell_heap y1]; exact prow_far hOl (by omega) (by omega)
                have c1 : wr.cell? ⟨w3.heap.size, 5, none⟩ = some (.int .u8 0) := by rw [cell_heap y1]; exact prow_far hOl (by omega) (by omega)
                have c2 : wr.cell? ⟨w3.heap.size, 6, none⟩ = some (.int .u8 0) := by rw [cell_heap y1]; exact prow_far hOl (by omega) (by omega)
                have c3 : wr.cell? ⟨w3.heap.size, 7, none⟩ = some (.int .u8 0) := by rw [cell_heap y1]; exact prow_far hOl (by omega) (by omega)
                have f0 : wr.frozen? ⟨w3.heap.size, 4, none⟩ = false := frozen_heap y1 4
                have f1 : wr.frozen? ⟨w3.heap.size, 5, none⟩ = false := frozen_heap y1 5
                have f2 : wr.frozen? ⟨w3.heap.size, 6, none⟩ = false := frozen_heap y1 6
                have f3 : wr.frozen? ⟨w3.heap.size, 7, none⟩ = false := frozen_heap y1 7
                go_upto_region 14 with fail
                go_wp2_with (refine wpList_index_arr rfl (.tmp 44) (.tmp 45) 153 152 8 .u32 rfl Tryd.underlying153 Tryd.underlying152 (by kernel_rfl) _ (by rfl) .i64 1 (by rfl) (by decide) (.int .u32 s1) (by rfl) ?_)
                go_roundw
                case rel =>
                  have p0 := row_put5 (k := 4) (v := .int .u8 ((s1 / 16777216) % 256)) y1
                  rw [show 4 * 1 = 4 from rfl, prow_u8 hOl (show (4 : Nat) < 32 by decide) (x := (s1 / 16777216)) (by rfl)] at p0
                  have p1 := row_put5 (k := 5) (v := .int .u8 ((s1 / 65536) % 256)) p0
                  rw [prow_u8 hOl (show (5 : Nat) < 32 by decide) (x := (s1 / 65536)) (by rfl)] at p1
                  have p2 := row_put5 (k := 6) (v := .int .u8 ((s1 / 256) % 256)) p1
                  rw [prow_u8 hOl (show (6 : Nat) < 32 by decide) (x := (s1 / 256)) (by rfl)] at p2
                  have p3 := row_put5 (k := 7) (v := .int .u8 (s1 % 256)) p2
                  rw [prow_u8 hOl (show (7 : Nat) < 32 by decide) (x := s1) (by rfl)] at p3
                  exact ⟨2, by omega, p3, (((hKW.setOut hl3 _).setOut hl3 _).setOut hl3 _).setOut hl3 _, by go_num⟩
                case measure => (simp [intOf])
              · have c0 : wr.cell? ⟨w3.heap.size, 8, none⟩ = some (.int .u8 0) := by rw [cell_heap y1]; exact prow_far hOl (by omega) (by omega)
                have c1 : wr.cell? ⟨w3.heap.size, 9, none⟩ = some (.int .u8 0) := by rw [cell_heap y1]; exact prow_far hOl (by omega) (by omega)
                have c2 : wr.cell? ⟨w3.heap.size, 10, none⟩ = some (.int .u8 0) := by rw [cell_heap y1]; exact prow_far hOl (by omega) (by omega)
                have c3 : wr.cell? ⟨w3.heap.size, 11, none⟩ = some (.int .u8 0) := by rw [cell_heap y1]; exact prow_far hOl (by omega) (by omega)
                have f0 : wr.frozen? ⟨w3.heap.size, 8, none⟩ = false := frozen_heap y1 8
                have f1 : wr.frozen? ⟨w3.heap.size, 9, none⟩ = false := frozen_heap y1 9
                have f2 : wr.frozen? ⟨w3.heap.size, 10, none⟩ = false := frozen_heap y1 10
                have f3 : wr.frozen? ⟨w3.heap.size, 11, none⟩ = false := frozen_heap y1 11
                go_upto_region 14 with fail
                go_wp2_with (refine wpList_index_arr rfl (.tmp 44) (.tmp 45) 153 152 8 .u32 rfl Tryd.underlying153 Tryd.underlying152 (by kernel_rfl) _ (by rfl) .i64 2 (by rfl) (by decide) (.int .u32 s2) (by rfl) ?_)
                go_roundw
                case rel =>
                  have p0 := row_put5 (k := 8) (v := .int .u8 ((s2 / 16777216) % 256)) y1
                  rw [show 4 * 2 = 8 from rfl, prow_u8 hOl (show (8 : Nat) < 32 by decide) (x := (s2 / 16777216)) (by rfl)] at p0
                  have p1 := row_put5 (k := 9) (v := .int .u8 ((s2 / 65536) % 256)) p0
                  rw [prow_u8 hOl (show (9 : Nat) < 32 by decide) (x := (s2 / 65536)) (by rfl)] at p1
                  have p2 := row_put5 (k := 10) (v := .int .u8 ((s2 / 256) % 256)) p1
                  rw [prow_u8 hOl (show (10 : Nat) < 32 by decide) (x := (s2 / 256)) (by rfl)] at p2
                  have p3 := row_put5 (k := 11) (v := .int .u8 (s2 % 256)) p2
                  rw [prow_u8 hOl (show (11 : Nat) < 32 by decide) (x := s2) (by rfl)] at p3
                  exact ⟨3, by omega, p3, (((hKW.setOut hl3 _).setOut hl3 _).setOut hl3 _).setOut hl3 _, by go_num⟩
                case measure => (simp [intOf])
              · have c0 : wr.cell? ⟨w3.heap.size, 12, none⟩ = some (.int .u8 0) := by rw [cell_heap y1]; exact prow_far hOl (by omega) (by omega)
                have c1 : wr.cell? ⟨w3.heap.size, 13, none⟩ = some (.int .u8 0) := by rw [cell_heap y1]; exact prow_far hOl (by omega) (by omega)
                have c2 : wr.cell? ⟨w3.heap.size, 14, none⟩ = some (.int .u8 0) := by rw [cell_heap y1]; exact prow_far hOl (by omega) (by omega)
                have c3 : wr.cell? ⟨w3.heap.size, 15, none⟩ = some (.int .u8 0) := by rw [cell_heap y1]; exact prow_far hOl (by omega) (by omega)
                have f0 : wr.frozen? ⟨w3.heap.size, 12, none⟩ = false := frozen_heap y1 12
                have f1 : wr.frozen? ⟨w3.heap.size, 13, none⟩ = false := frozen_heap y1 13
                have f2 : wr.frozen? ⟨w3.heap.size, 14, none⟩ = false := frozen_heap y1 14
                have f3 : wr.frozen? ⟨w3.heap.size, 15, none⟩ = false := frozen_heap y1 15
                go_upto_region 14 with fail
                go_wp2_with (refine wpList_index_arr rfl (.tmp 44) (.tmp 45) 153 152 8 .u32 rfl Tryd.underlying153 Tryd.underlying152 (by kernel_rfl) _ (by rfl) .i64 3 (by rfl) (by decide) (.int .u32 s3) (by rfl) ?_)
                go_roundw
                case rel =>
                  have p0 := row_put5 (k := 12) (v := .int .u8 ((s3 / 16777216) % 256)) y1
                  rw [show 4 * 3 = 12 from rfl, prow_u8 hOl (show (12 : Nat) < 32 by decide) (x := (s3 / 16777216)) (by rfl)] at p0
                  have p1 := row_put5 (k := 13) (v := .int .u8 ((s3 / 65536) % 256)) p0
                  rw [prow_u8 hOl (show (13 : Nat) < 32 by decide) (x := (s3 / 65536)) (by rfl)] at p1
                  have p2 := row_put5 (k := 14) (v := .int .u8 ((s3 / 256) % 256)) p1
                  rw [prow_u8 hOl (show (14 : Nat) < 32 by decide) (x := (s3 / 256)) (by rfl)] at p2
                  have p3 := row_put5 (k := 15) (v := .int .u8 (s3 % 256)) p2
                  rw [prow_u8 hOl (show (15 : Nat) < 32 by decide) (x := s3) (by rfl)] at p3
                  exact ⟨4, by omega, p3, (((hKW.setOut hl3 _).setOut hl3 _).setOut hl3 _).setOut hl3 _, by go_num⟩
                case measure => (simp [intOf])
              · have c0 : wr.cell? ⟨w3.heap.size, 16, none⟩ = some (.int .u8 0) := by rw [cell_heap y1]; exact prow_far hOl (by omega) (by omega)
                have c1 : wr.cell? ⟨w3.heap.size, 17, none⟩ = some (.int .u8 0) := by rw [cell_heap y1]; exact prow_far hOl (by omega) (by omega)
                have c2 : wr.cell? ⟨w3.heap.size, 18, none⟩ = some (.int .u8 0) := by rw [cell_heap y1]; exact prow_far hOl (by omega) (by omega)
                have c3 : wr.cell? ⟨w3.heap.size, 19, none⟩ = some (.int .u8 0) := by rw [cell_heap y1]; exact prow_far hOl (by omega) (by omega)
                have f0 : wr.frozen? ⟨w3.heap.size, 16, none⟩ = false := frozen_heap y1 16
                have f1 : wr.frozen? ⟨w3.heap.size, 17, none⟩ = false := frozen_heap y1 17
                have f2 : wr.frozen? ⟨w3.heap.size, 18, none⟩ = false := frozen_heap y1 18
                have f3 : wr.frozen? ⟨w3.heap.size, 19, none⟩ = false := frozen_heap y1 19
                go_upto_region 14 with fail
                go_wp2_with (refine wpList_index_arr rfl (.tmp 44) (.tmp 45) 153 152 8 .u32 rfl Tryd.underlying153 Tryd.underlying152 (by kernel_rfl) _ (by rfl) .i64 4 (by rfl) (by decide) (.int .u32 s4) (by rfl) ?_)
                go_roundw
                case rel =>
                  have p0 := row_put5 (k := 16) (v := .int .u8 ((s4 / 16777216) % 256)) y1
                  rw [show 4 * 4 = 16 from rfl, prow_u8 hOl (show (16 : Nat) < 32 by decide) (x := (s4 / 16777216)) (by rfl)] at p0
                  have p1 := row_put5 (k := 17) (v := .int .u8 ((s4 / 65536) % 256)) p0
                  rw [prow_u8 hOl (show (17 : Nat) < 32 by decide) (x := (s4 / 65536)) (by rfl)] at p1
                  have p2 := row_put5 (k := 18) (v := .int .u8 ((s4 / 256) % 256)) p1
                  rw [prow_u8 hOl (show (18 : Nat) < 32 by decide) (x := (s4 / 256)) (by rfl)] at p2
                  have p3 := row_put5 (k := 19) (v := .int .u8 (s4 % 256)) p2
                  rw [prow_u8 hOl (show (19 : Nat) < 32 by decide) (x := s4) (by rfl)] at p3
                  exact ⟨5, by omega, p3, (((hKW.setOut hl3 _).setOut hl3 _).setOut hl3 _).setOut hl3 _, by go_num⟩
                case measure => (simp [intOf])
              · have c0 : wr.cell? ⟨w3.heap.size, 20, none⟩ = some (.int .u8 0) := by rw [cell_heap y1]; exact prow_far hOl (by omega) (by omega)
                have c1 : wr.cell? ⟨w3.heap.size, 21, none⟩ = some (.int .u8 0) := by rw [cell_heap y1]; exact prow_far hOl (by omega) (by omega)
                have c2 : wr.cell? ⟨w3.heap.size, 22, none⟩ = some (.int .u8 0) := by rw [cell_heap y1]; exact prow_far hOl (by omega) (by omega)
                have c3 : wr.cell? ⟨w3.heap.size, 23, none⟩ = some (.int .u8 0) := by rw [cell_heap y1]; exact prow_far hOl (by omega) (by omega)
                have f0 : wr.frozen? ⟨w3.heap.size, 20, none⟩ = false := frozen_heap y1 20
                have f1 : wr.frozen? ⟨w3.heap.size, 21, none⟩ = false := frozen_heap y1 21
                have f2 : wr.frozen? ⟨w3.heap.size, 22, none⟩ = false := frozen_heap y1 22
                have f3 : wr.frozen? ⟨w3.heap.size, 23, none⟩ = false := frozen_heap y1 23
                go_upto_region 14 with fail
                go_wp2_with (refine wpList_index_arr rfl (.tmp 44) (.tmp 45) 153 152 8 .u32 rfl Tryd.underlying153 Tryd.underlying152 (by kernel_rfl) _ (by rfl) .i64 5 (by rfl) (by decide) (.int .u32 s5) (by rfl) ?_)
                go_roundw
                case rel =>
                  have p0 := row_put5 (k := 20) (v := .int .u8 ((s5 / 16777216) % 256)) y1
                  rw [show 4 * 5 = 20 from rfl, prow_u8 hOl (show (20 : Nat) < 32 by decide) (x := (s5 / 16777216)) (by rfl)] at p0
                  have p1 := row_put5 (k := 21) (v := .int .u8 ((s5 / 65536) % 256)) p0
                  rw [prow_u8 hOl (show (21 : Nat) < 32 by decide) (x := (s5 / 65536)) (by rfl)] at p1
                  have p2 := row_put5 (k := 22) (v := .int .u8 ((s5 / 256) % 256)) p1
                  rw [prow_u8 hOl (show (22 : Nat) < 32 by decide) (x := (s5 / 256)) (by rfl)] at p2
                  have p3 := row_put5 (k := 23) (v := .int .u8 (s5 % 256)) p2
                  rw [prow_u8 hOl (show (23 : Nat) < 32 by decide) (x := s5) (by rfl)] at p3
                  exact ⟨6, by omega, p3, (((hKW.setOut hl3 _).setOut hl3 _).setOut hl3 _).setOut hl3 _, by go_num⟩
                case measure => (simp [intOf])
              · have c0 : wr.cell? ⟨w3.heap.size, 24, none⟩ = some (.int .u8 0) := by rw [cell_heap y1]; exact prow_far hOl (by omega) (by omega)
                have c1 : wr.cell? ⟨w3.heap.size, 25, none⟩ = some (.int .u8 0) := by rw [cell_heap y1]; exact prow_far hOl (by omega) (by omega)
                have c2 : wr.cell? ⟨w3.heap.size, 26, none⟩ = some (.int .u8 0) := by rw [cell_heap y1]; exact prow_far hOl (by omega) (by omega)
                have c3 : wr.cell? ⟨w3.heap.size, 27, none⟩ = some (.int .u8 0) := by rw [cell_heap y1]; exact prow_far hOl (by omega) (by omega)
                have f0 : wr.frozen? ⟨w3.heap.size, 24, none⟩ = false := frozen_heap y1 24
                have f1 : wr.frozen? ⟨w3.heap.size, 25, none⟩ = false := frozen_heap y1 25
                have f2 : wr.frozen? ⟨w3.heap.size, 26, none⟩ = false := frozen_heap y1 26
                have f3 : wr.frozen? ⟨w3.heap.size, 27, none⟩ = false := frozen_heap y1 27
                go_upto_region 14 with fail
                go_wp2_with (refine wpList_index_arr rfl (.tmp 44) (.tmp 45) 153 152 8 .u32 rfl Tryd.underlying153 Tryd.underlying152 (by kernel_rfl) _ (by rfl) .i64 6 (by rfl) (by decide) (.int .u32 s6) (by rfl) ?_)
                go_roundw
                case rel =>
                  have p0 := row_put5 (k := 24) (v := .int .u8 ((s6 / 16777216) % 256)) y1
                  rw [show 4 * 6 = 24 from rfl, prow_u8 hOl (show (24 : Nat) < 32 by decide) (x := (s6 / 16777216)) (by rfl)] at p0
                  have p1 := row_put5 (k := 25) (v := .int .u8 ((s6 / 65536) % 256)) p0
                  rw [prow_u8 hOl (show (25 : Nat) < 32 by decide) (x := (s6 / 65536)) (by rfl)] at p1
                  have p2 := row_put5 (k := 26) (v := .int .u8 ((s6 / 256) % 256)) p1
                  rw [prow_u8 hOl (show (26 : Nat) < 32 by decide) (x := (s6 / 256)) (by rfl)] at p2
                  have p3 := row_put5 (k := 27) (v := .int .u8 (s6 % 256)) p2
                  rw [prow_u8 hOl (show (27 : Nat) < 32 by decide) (x := s6) (by rfl)] at p3
                  exact ⟨7, by omega, p3, (((hKW.setOut hl3 _).setOut hl3 _).setOut hl3 _).setOut hl3 _, by go_num⟩
                case measure => (simp [intOf])
              · have c0 : wr.cell? ⟨w3.heap.size, 28, none⟩ = some (.int .u8 0) := by rw [cell_heap y1]; exact prow_far hOl (by omega) (by omega)
                have c1 : wr.cell? ⟨w3.heap.size, 29, none⟩ = some (.int .u8 0) := by rw [cell_heap y1]; exact prow_far hOl (by omega) (by omega)
                have c2 : wr.cell? ⟨w3.heap.size, 30, none⟩ = some (.int .u8 0) := by rw [cell_heap y1]; exact prow_far hOl (by omega) (by omega)
                have c3 : wr.cell? ⟨w3.heap.size, 31, none⟩ = some (.int .u8 0) := by rw [cell_heap y1]; exact prow_far hOl (by omega) (by omega)
                have f0 : wr.frozen? ⟨w3.heap.size, 28, none⟩ = false := frozen_heap y1 28
                have f1 : wr.frozen? ⟨w3.heap.size, 29, none⟩ = false := frozen_heap y1 29
                have f2 : wr.frozen? ⟨w3.heap.size, 30, none⟩ = false := frozen_heap y1 30
                have f3 : wr.frozen? ⟨w3.heap.size, 31, none⟩ = false := frozen_heap y1 31
                go_upto_region 14 with fail
                go_wp2_with (refine wpList_index_arr rfl (.tmp 44) (.tmp 45) 153 152 8 .u32 rfl Tryd.underlying153 Tryd.underlying152 (by kernel_rfl) _ (by rfl) .i64 7 (by rfl) (by decide) (.int .u32 s7) (by rfl) ?_)
                go_roundw
                case rel =>
                  have p0 := row_put5 (k := 28) (v := .int .u8 ((s7 / 16777216) % 256)) y1
                  rw [show 4 * 7 = 28 from rfl, prow_u8 hOl (show (28 : Nat) < 32 by decide) (x := (s7 / 16777216)) (by rfl)] at p0
                  have p1 := row_put5 (k := 29) (v := .int .u8 ((s7 / 65536) % 256)) p0
                  rw [prow_u8 hOl (show (29 : Nat) < 32 by decide) (x := (s7 / 65536)) (by rfl)] at p1
                  have p2 := row_put5 (k := 30) (v := .int .u8 ((s7 / 256) % 256)) p1
                  rw [prow_u8 hOl (show (30 : Nat) < 32 by decide) (x := (s7 / 256)) (by rfl)] at p2
                  have p3 := row_put5 (k := 31) (v := .int .u8 (s7 % 256)) p2
                  rw [prow_u8 hOl (show (31 : Nat) < 32 by decide) (x := s7) (by rfl)] at p3
                  exact ⟨8, by omega, p3, (((hKW.setOut hl3 _).setOut hl3 _).setOut hl3 _).setOut hl3 _, by go_num⟩
                case measure => (simp [intOf])
            · obtain rfl : i = 8 := by omega
              have d3 : decide (((8 : Nat) : Int) < 8) = false := rfl
              have y1 : wr.heap[w3.heap.size]? = some (.cells (hrow (out32 [s0, s1, s2, s3, s4, s5, s6, s7])) 35 (0, 0)) := by rw [← prow_full hOl]; exact y1
              have hsz : (hrow (out32 [s0, s1, s2, s3, s4, s5, s6, s7])).size = 32 := by rw [hrow_size]; exact hOl
              have hone := hrow_one (out32 [s0, s1, s2, s3, s4, s5, s6, s7])
              have y0 : wr.heap[w.heap.size]? = some (.cells #[Value.int .u8 0, Value.int .u8 0, Value.int .u8 0, Value.int .u8 0, Value.int .u8 0, Value.int .u8 0, Value.int .u8 0, Value.int .u8 0, Value.int .u8 0, Value.int .u8 0, Value.int .u8 0, Value.int .u8 0, Value.int .u8 0, Value.int .u8 0, Value.int .u8 0, Value.int .u8 0, Value.int .u8 0, Value.int .u8 0, Value.int .u8 0, Value.int .u8 0, Value.int .u8 0, Value.int .u8 0, Value.int .u8 0, Value.int .u8 0, Value.int .u8 0, Value.int .u8 0, Value.int .u8 0, Value.int .u8 0, Value.int .u8 0, Value.int .u8 0, Value.int .u8 0, Value.int .u8 0] 35 (0, 0)) := by rw [hKW.block _ hlW hne]; exact y0
              go_wp2_with (first | (refine wpList_loadRow rfl (.tmp 5) 35 rfl Tryd.underlying35 (by rw [hsz]; kernel_rfl) rfl y1 ?_) | (refine wpList_storeRowTo rfl (.tmp 2) (.tmp 76) 35 rfl (by rw [hsz]; kernel_rfl) rfl rfl y0 (by rw [hsz]; rfl) hone ?_))
              refine bodyPost_ret (v := .agg (hrow (out32 [s0, s1, s2, s3, s4, s5, s6, s7]))) ?_ rfl ?_
              · simp [results, Tryd.results104, Act.put, asAddr]
                exact run_loadVar_row _ _ 35 35 _ (0, 0) _ (setRow_heap _ _ _ _ _ _ y0) Tryd.underlying35 rfl (by rw [hsz]; kernel_rfl)
              exact ⟨by rw [HO.out], (hK.trans hKW).setRow (Nat.le_refl _) _⟩
    · have hkp : k < padN n := by have : k ≠ padN n := fun e => hu (by have := hpm.2 e; omega); omega
      have d1 : ((u : Int) == 56) = false := beq_eq_false_iff_ne.2 (by omega)
      have s0 : (⟨#[0]⟩ : ByteArray).size = 1 := rfl
      have hpn : padN n ≤ 63 := by unfold padN; omega
      have CA := add_any b wr _ _ B q u ⟨#[0]⟩ hG (hW.kept hb2 hKW) hb2 (by omega) (by rw [s0]; omega)
      go_wp2_with (go_at_call 103; refine CA.mono ?_; rintro e w4 ⟨rfl, hG4, hK4⟩)
      obtain ⟨B4, q4, u4', hG4⟩ := hG4
      rw [padT_succ] at hG4
      have hl4 := hG4.len
      rw [padT_len, hn] at hl4
      have hu4 := hG4.lt
      go_roundw
      case rel => exact ⟨k + 1, B4, q4, u4', by omega, by rw [show ((n : Int) + ((1 : Nat) : Int) + ((k + 1 : Nat) : Int)) = (n : Int) + ((1 : Nat) : Int) + (k : Int) + ((1 : Nat) : Int) by omega]; exact hG4, hKW.trans hK4⟩
      case measure =>
        have c4 : w4.cell? ⟨b, 72, none⟩ = some (.int .i64 u4') := by rw [cell_heap hG4.row, drow_at72 (hs_len _ _) hG4.buf]
        rw [c1, c4]
        show (120 - ((u4' : Nat) : Int).toNat) % 64 < (120 - ((u : Nat) : Int).toNat) % 64
        rw [Int.toNat_natCast, Int.toNat_natCast]
        omega
end Go.Proofs.YtpledhipdiephaaDoor
