/- tree.Fold; lists of hashes that are the same. -/
import Derived.Test.YtfikbaoiialfeaaDoorFold
import Derived.WalkKit
import Derived.ProofKit
import Derived.Handy
import Derived.Below
import Derived.Lib.Hide
import Derived.IntWalk
import Derived.Outline
import Derived.WalkLawsBesides
import Derived.WalkSpells
namespace Go.Proofs.YtfikbaoiialfeaaDoor
open Go.RowKit
attribute [local go_sem] strV
set_option linter.unusedVariables false

def foldR (n i : Int) (z : H32) (wy : List H32) : H32 × Bool := bif insB n i && decide ((wy.length : Int) = deepI n i) then (foldH n.toNat i.toNat z wy, true) else (zeroH, false)
theorem insB_iff {n i : Int} : insB n i = true ↔ n ≤ 1073741824 ∧ 0 ≤ i ∧ i < n := by
  unfold insB; simp only [Bool.and_eq_true, decide_eq_true_eq, and_assoc]
set_option maxRecDepth 100000 in
set_option maxHeartbeats 2000000 in
theorem Fold_any (n i : Int) (z : H32) (wy : List H32) (a : Option Addr) (k cap : Nat) (w : World) (hk : wy.length = k) (hcap : k ≤ cap) (hcm : cap ≤ maxLen) (hr : RowAt w a (wy.flatMap H32.cells)) (hW : SW w) :
    Calls Tryd.prog 10 #[.int .i64 n, .int .i64 i, .agg (hrow z.1), .slice a k cap] w fun e w' => e = .returned (.tuple #[.agg (hrow (foldR n i z wy).1.1), .bool (foldR n i z wy).2]) ∧ Below w.heap.size w w' := by
  have hq : (hrow z.1).size = 32 := by rw [hrow_size]; exact z.2
  have hqone := hrow_one z.1
  have g0 := al2_0 w (.cells (hrow z.1) 25) (.cells #[Value.int .u8 0, Value.int .u8 0, Value.int .u8 0, Value.int .u8 0, Value.int .u8 0, Value.int .u8 0, Value.int .u8 0, Value.int .u8 0, Value.int .u8 0, Value.int .u8 0, Value.int .u8 0, Value.int .u8 0, Value.int .u8 0, Value.int .u8 0, Value.int .u8 0, Value.int .u8 0, Value.int .u8 0, Value.int .u8 0, Value.int .u8 0, Value.int .u8 0, Value.int .u8 0, Value.int .u8 0, Value.int .u8 0, Value.int .u8 0, Value.int .u8 0, Value.int .u8 0, Value.int .u8 0, Value.int .u8 0, Value.int .u8 0, Value.int .u8 0, Value.int .u8 0, Value.int .u8 0] 25)
  have g9 := al2_1 w (.cells (hrow z.1) 25) (.cells #[Value.int .u8 0, Value.int .u8 0, Value.int .u8 0, Value.int .u8 0, Value.int .u8 0, Value.int .u8 0, Value.int .u8 0, Value.int .u8 0, Value.int .u8 0, Value.int .u8 0, Value.int .u8 0, Value.int .u8 0, Value.int .u8 0, Value.int .u8 0, Value.int .u8 0, Value.int .u8 0, Value.int .u8 0, Value.int .u8 0, Value.int .u8 0, Value.int .u8 0, Value.int .u8 0, Value.int .u8 0, Value.int .u8 0, Value.int .u8 0, Value.int .u8 0, Value.int .u8 0, Value.int .u8 0, Value.int .u8 0, Value.int .u8 0, Value.int .u8 0, Value.int .u8 0, Value.int .u8 0] 25)
  have hbA := al2_below w (.cells (hrow z.1) 25) (.cells #[Value.int .u8 0, Value.int .u8 0, Value.int .u8 0, Value.int .u8 0, Value.int .u8 0, Value.int .u8 0, Value.int .u8 0, Value.int .u8 0, Value.int .u8 0, Value.int .u8 0, Value.int .u8 0, Value.int .u8 0, Value.int .u8 0, Value.int .u8 0, Value.int .u8 0, Value.int .u8 0, Value.int .u8 0, Value.int .u8 0, Value.int .u8 0, Value.int .u8 0, Value.int .u8 0, Value.int .u8 0, Value.int .u8 0, Value.int .u8 0, Value.int .u8 0, Value.int .u8 0, Value.int .u8 0, Value.int .u8 0, Value.int .u8 0, Value.int .u8 0, Value.int .u8 0, Value.int .u8 0] 25)
  have CI := fun W => inside_any n i W
  have CD := fun W => deep_any n i W
  obtain ⟨ib, hib⟩ : ∃ b, insB n i = b := ⟨_, rfl⟩
  obtain ⟨D, hD⟩ : ∃ d, deepI n i = d := ⟨_, rfl⟩
  simp only [hib] at CI
  simp only [hD] at CD
  have hF : foldR n i z wy = bif ib && decide ((k : Int) = D) then (foldH n.toNat i.toNat z wy, true) else (zeroH, false) := by unfold foldR; rw [hib, hD, hk]
  rw [hF]
  clear hF
  have hz : (hrow z32).size = 32 := by rfl
  have hzone := hrow_one z32
  cases ib
  · clear hib hD
    go_enter Tryd.func10, Tryd.ntmps10
    go_upto_region 1 with fail
    refine wp_nameE _ (fun W1 hX => ?_)
    have y0 : W1.heap[w.heap.size]? = some (.cells (hrow z.1) 25 (0, 0)) := by rw [hX]; exact g0
    have y9 : W1.heap[w.heap.size + 1]? = some (.cells #[Value.int .u8 0, Value.int .u8 0, Value.int .u8 0, Value.int .u8 0, Value.int .u8 0, Value.int .u8 0, Value.int .u8 0, Value.int .u8 0, Value.int .u8 0, Value.int .u8 0, Value.int .u8 0, Value.int .u8 0, Value.int .u8 0, Value.int .u8 0, Value.int .u8 0, Value.int .u8 0, Value.int .u8 0, Value.int .u8 0, Value.int .u8 0, Value.int .u8 0, Value.int .u8 0, Value.int .u8 0, Value.int .u8 0, Value.int .u8 0, Value.int .u8 0, Value.int .u8 0, Value.int .u8 0, Value.int .u8 0, Value.int .u8 0, Value.int .u8 0, Value.int .u8 0, Value.int .u8 0] 25 (0, 0)) := by rw [hX]; exact g9
    have hbel : Below w.heap.size w W1 := by rw [hX]; exact hbA
    clear hX g0 g9 hbA
    have hy0 : w.heap.size < W1.heap.size := (Array.getElem?_eq_some_iff.1 y0).1
    have hy9 : w.heap.size + 1 < W1.heap.size := (Array.getElem?_eq_some_iff.1 y9).1
    go_upto_region 2 with (go_at_call 62; refine (CI _).mono ?_; rintro e w2 ⟨rfl, hb⟩; have y0 := cells_of y0 hb hy0; have y9 := cells_of y9 hb hy9; have hy0 := Nat.lt_of_lt_of_le hy0 hb.size; have hy9 := Nat.lt_of_lt_of_le hy9 hb.size; have hbel := hbel.trans (hb.mono hbel.size); clear hb)
    go_wp2_with (refine wpList_storeRowTo (Z := hrow z32) rfl (.tmp 8) (.tmp 22) 25 rfl (by rw [hz]; kernel_rfl) rfl (by rfl) y9 (by rw [hz]; rfl) hzone ?_)
    have hrd := run_loadVar_row (P := Tryd.prog) _ _ 25 25 _ (0, 0) _ (setRow_heap _ _ _ _ _ _ y9) Tryd.underlying25 rfl (by rw [hz]; kernel_rfl)
    refine bodyPost_ret (v := .tuple #[.agg (hrow z32), .bool false]) ?_ rfl ?_
    · simp [results, Tryd.results10, asAddr, hrd]
      try rfl
    exact ⟨rfl, below_setRow hbel (by omega) _⟩
  by_cases hkD : (k : Int) = D
  · have f3 : ((k : Int) != D) = false := by rw [hkD]; simp
    obtain ⟨e1, e2, e3⟩ := insB_iff.1 hib
    obtain ⟨i, rfl⟩ : ∃ m : Nat, i = m := ⟨i.toNat, by omega⟩
    obtain ⟨n, rfl⟩ : ∃ m : Nat, n = m := ⟨n.toNat, by omega⟩
    have hdk : wy.length = deepN n i := by
      unfold deepI at hD
      rw [hib] at hD
      simp only [cond_true, Int.toNat_natCast] at hD
      omega
    have CF := fun W h1 h2 => fold_any n i z wy a k cap W (by omega) (by omega) hdk hk hcap hcm h1 h2
    rw [decide_eq_true hkD]
    simp only [Bool.and_true, cond_true, Int.toNat_natCast]
    obtain ⟨R, hR⟩ : ∃ R, foldH n i z wy = R := ⟨_, rfl⟩
    simp only [hR] at CF ⊢
    have hsR : (hrow R.1).size = 32 := by rw [hrow_size]; exact R.2
    have hoR := hrow_one R.1
    clear hR hdk hkD hib hD e1 e2 e3
    go_enter Tryd.func10, Tryd.ntmps10
    go_upto_region 1 with fail
    refine wp_nameE _ (fun W1 hX => ?_)
    have y0 : W1.heap[w.heap.size]? = some (.cells (hrow z.1) 25 (0, 0)) := by rw [hX]; exact g0
    have y9 : W1.heap[w.heap.size + 1]? = some (.cells #[Value.int .u8 0, Value.int .u8 0, Value.int .u8 0, Value.int .u8 0, Value.int .u8 0, Value.int .u8 0, Value.int .u8 0, Value.int .u8 0, Value.int .u8 0, Value.int .u8 0, Value.int .u8 0, Value.int .u8 0, Value.int .u8 0, Value.int .u8 0, Value.int .u8 0, Value.int .u8 0, Value.int .u8 0, Value.int .u8 0, Value.int .u8 0, Value.int .u8 0, Value.int .u8 0, Value.int .u8 0, Value.int .u8 0, Value.int .u8 0, Value.int .u8 0, Value.int .u8 0, Value.int .u8 0, Value.int .u8 0, Value.int .u8 0, Value.int .u8 0, Value.int .u8 0, Value.int .u8 0] 25 (0, 0)) := by rw [hX]; exact g9
    have hbel : Below w.heap.size w W1 := by rw [hX]; exact hbA
    clear hX g0 g9 hbA
    have hy0 : w.heap.size < W1.heap.size := (Array.getElem?_eq_some_iff.1 y0).1
    have hy9 : w.heap.size + 1 < W1.heap.size := (Array.getElem?_eq_some_iff.1 y9).1
    go_upto_region 3 with (first | (go_at_call 62; refine (CI _).mono ?_; rintro e w2 ⟨rfl, hb⟩; have y0 := cells_of y0 hb hy0; have y9 := cells_of y9 hb hy9; have hy0 := Nat.lt_of_lt_of_le hy0 hb.size; have hy9 := Nat.lt_of_lt_of_le hy9 hb.size; have hbel := hbel.trans (hb.mono hbel.size); clear hb) | (go_at_call 25; refine (CD _).mono ?_; rintro e w2 ⟨rfl, hb⟩; have y0 := cells_of y0 hb hy0; have y9 := cells_of y9 hb hy9; have hy0 := Nat.lt_of_lt_of_le hy0 hb.size; have hy9 := Nat.lt_of_lt_of_le hy9 hb.size; have hbel := hbel.trans (hb.mono hbel.size); clear hb))
    have hrg := hrow_range y0
    have hr := hr.below hbel
    have hW := hW.below hbel
    go_wp2_with (first | (refine wpList_load_mid rfl 25 (.tmp 6) rfl w.heap.size 0 rfl z.cells _ hrg Tryd.underlying25 rfl (hash_info z) ?_; rw [H32.row]) | (go_at_call 63; refine (CF _ hr hW).mono ?_; rintro e w3 ⟨rfl, hb⟩; have y9 := cells_of y9 hb hy9; have hbel := hbel.trans (hb.mono hbel.size)) | (refine wpList_storeRowTo rfl (.tmp 8) (.tmp 27) 25 rfl (by rw [hsR]; kernel_rfl) rfl (by rfl) y9 (by rw [hsR]; rfl) hoR ?_))
    have hrd := run_loadVar_row (P := Tryd.prog) _ _ 25 25 _ (0, 0) _ (setRow_heap _ _ _ _ _ _ y9) Tryd.underlying25 rfl (by rw [hsR]; kernel_rfl)
    refine bodyPost_ret (v := .tuple #[.agg (hrow R.1), .bool true]) ?_ rfl ?_
    · simp [results, Tryd.results10, asAddr, hrd]
      try rfl
    exact ⟨rfl, below_setRow hbel (by omega) _⟩
  · have f3 : ((k : Int) != D) = true := by rw [bne_iff_ne]; exact hkD
    rw [decide_eq_false hkD]
    simp only [Bool.and_false, cond_false]
    clear hib hD hkD
    go_enter Tryd.func10, Tryd.ntmps10
    go_upto_region 1 with fail
    refine wp_nameE _ (fun W1 hX => ?_)
    have y0 : W1.heap[w.heap.size]? = some (.cells (hrow z.1) 25 (0, 0)) := by rw [hX]; exact g0
    have y9 : W1.heap[w.heap.size + 1]? = some (.cells #[Value.int .u8 0, Value.int .u8 0, Value.int .u8 0, Value.int .u8 0, Value.int .u8 0, Value.int .u8 0, Value.int .u8 0, Value.int .u8 0, Value.int .u8 0, Value.int .u8 0, Value.int .u8 0, Value.int .u8 0, Value.int .u8 0, Value.int .u8 0, Value.int .u8 0, Value.int .u8 0, Value.int .u8 0, Value.int .u8 0, Value.int .u8 0, Value.int .u8 0, Value.int .u8 0, Value.int .u8 0, Value.int .u8 0, Value.int .u8 0, Value.int .u8 0, Value.int .u8 0, Value.int .u8 0, Value.int .u8 0, Value.int .u8 0, Value.int .u8 0, Value.int .u8 0, Value.int .u8 0] 25 (0, 0)) := by rw [hX]; exact g9
    have hbel : Below w.heap.size w W1 := by rw [hX]; exact hbA
    clear hX g0 g9 hbA
    have hy0 : w.heap.size < W1.heap.size := (Array.getElem?_eq_some_iff.1 y0).1
    have hy9 : w.heap.size + 1 < W1.heap.size := (Array.getElem?_eq_some_iff.1 y9).1
    go_upto_region 2 with (first | (go_at_call 62; refine (CI _).mono ?_; rintro e w2 ⟨rfl, hb⟩; have y0 := cells_of y0 hb hy0; have y9 := cells_of y9 hb hy9; have hy0 := Nat.lt_of_lt_of_le hy0 hb.size; have hy9 := Nat.lt_of_lt_of_le hy9 hb.size; have hbel := hbel.trans (hb.mono hbel.size); clear hb) | (go_at_call 25; refine (CD _).mono ?_; rintro e w2 ⟨rfl, hb⟩; have y0 := cells_of y0 hb hy0; have y9 := cells_of y9 hb hy9; have hy0 := Nat.lt_of_lt_of_le hy0 hb.size; have hy9 := Nat.lt_of_lt_of_le hy9 hb.size; have hbel := hbel.trans (hb.mono hbel.size); clear hb))
    go_wp2_with (refine wpList_storeRowTo (Z := hrow z32) rfl (.tmp 8) (.tmp 22) 25 rfl (by rw [hz]; kernel_rfl) rfl (by rfl) y9 (by rw [hz]; rfl) hzone ?_)
    have hrd := run_loadVar_row (P := Tryd.prog) _ _ 25 25 _ (0, 0) _ (setRow_heap _ _ _ _ _ _ y9) Tryd.underlying25 rfl (by rw [hz]; kernel_rfl)
    refine bodyPost_ret (v := .tuple #[.agg (hrow z32), .bool false]) ?_ rfl ?_
    · simp [results, Tryd.results10, asAddr, hrd]
      try rfl
    exact ⟨rfl, below_setRow hbel (by omega) _⟩
theorem hload9 {P : Program} {o : Oper} {a : Act} {C : World → Prop} {K : Act → Prop} {v : Value} (t : TypeId) (p : Operand) {ad : Value} (hop : o.op = Op.load t p) (hp : a.eval p = ad)
    (hl : ∀ w, C w → (Instr.loadAt t ad).run P w = .ok v w) (h : K (a.put o.dst v)) : o.quiet P a C K := by
  refine ⟨v, fun w hw => ?_, h⟩
  unfold Oper.quietAt
  have := hl w hw
  simp [execOp, hop, hp, this, Result.andThen, Oper.quietUpon]
  try exact hw
def hsB (l m : List H32) : Bool := decide (l = m)
set_option maxRecDepth 100000 in
set_option maxHeartbeats 2000000 in
theorem hashes_any (a1 a2 : Option Addr) (n1 n2 c1 c2 : Nat) (es fs : List H32) (w : World) (h1 : RowAt w a1 (es.flatMap H32.cells)) (h2 : RowAt w a2 (fs.flatMap H32.cells)) (hn : es.length = n1) (hm : fs.length = n2) (hnm : n1 ≤ maxLen) (hmm : n2 ≤ maxLen) :
    Calls Tryd.prog 22 #[.slice a1 n1 c1, .slice a2 n2 c2] w fun e w' => e = .returned (.bool (hsB es fs)) ∧ Below w.heap.size w w' := by
  by_cases hnn : n1 = n2
  · subst hnn
    obtain ⟨r, hF⟩ : ∃ r, hsB es fs = r := ⟨_, rfl⟩
    rw [hF]
    have HF := Lib.hid hF
    have HN := Lib.hid hn
    have HM := Lib.hid hm
    clear hF hn hm hmm
    unfold maxLen at hnm
    have e0 : ((n1 : Int) != (n1 : Int)) = false := by simp
    have e0n : (n1 != n1) = false := by simp
    go_enter Tryd.func22, Tryd.ntmps22
    go_upto_region 4 with fail
    go_loopw [5] (fun i wr => ∃ k : Nat, k ≤ n1 ∧ i = .int .i64 k ∧ Hid (es.take k = fs.take k) ∧ Below w.heap.size w wr) (fun i _ => n1 - (intOf i).toNat)
    case atStart => exact ⟨0, Nat.zero_le _, rfl, Lib.hid rfl, Below.refl _ _⟩
    case round =>
    obtain ⟨k, hk, rfl, HT, hbel⟩ := hrel
    by_cases hlt : k < n1
    · have d1 : decide ((k : Int) < (n1 : Int)) = true := decide_eq_true (by omega)
      have d1n : decide (k < n1) = true := decide_eq_true hlt
      have hkl : k < es.length := by rw [HN.out]; exact hlt
      have hkm : k < fs.length := by rw [HM.out]; exact hlt
      obtain ⟨b1, o1, rfl, hb1, hg1⟩ := hs_at (h1.below hbel) hkl
      obtain ⟨b2, o2, rfl, hb2, hg2⟩ := hs_at (h2.below hbel) hkm
      obtain ⟨q, hp⟩ : ∃ p, es[k] = p := ⟨_, rfl⟩
      obtain ⟨q2, hp2⟩ : ∃ p, fs[k] = p := ⟨_, rfl⟩
      rw [hp] at hg1
      rw [hp2] at hg2
      have l1 := fun m => load_hash_mid hg1 hb1 m
      have l2 := fun m => load_hash_mid hg2 hb2 m
      have hEQ := fun V : World => (run_equal_hash V 25 q.1 q2.1 q.2 q2.2 Tryd.underlying25 Tryd.underlying5 (by kernel_rfl) : (Op.equalIn 10000 25 (.agg (hrow q.1)) (.agg (hrow q2.1))).run Tryd.prog V = .ok (q.1 == q2.1) V)
      obtain ⟨eb, heb⟩ : ∃ b, (q.1 == q2.1) = b := ⟨_, rfl⟩
      simp only [heb] at hEQ
      have n0 : (0 : Int) ≤ (k : Int) := by omega
      have n1' : (k : Int) < (n1 : Int) := by omega
      have n2' : ((k : Nat) : Int).toNat = k := by omega
      cases eb
      · have hbad : r = false := by
          rw [← HF.out]
          unfold hsB
          rw [decide_eq_false_iff_not]
          intro q9
          have : q = q2 := by subst q9; rw [← hp, ← hp2]
          subst this
          simp at heb
        subst hbad
        clear heb hp hp2 hg1 hg2
        go_upto_region 6 with fail
        refine wp_region_below (by kernel_rfl) (by kernel_rfl) ?_
        repeat (first | (go_big_quiet_want; refine hload9 (v := .agg (hrow q.1)) 25 (.tmp 19) rfl (by rfl) (by rintro _ ⟨m, rfl⟩; exact l1 m) ?_; simp only [Act.put, List.setIfInBounds_toArray, List.set_cons_succ, List.set_cons_zero]; go_big_quiet_on) | (go_big_quiet_want; refine hload9 (v := .agg (hrow q2.1)) 25 (.tmp 23) rfl (by rfl) (by rintro _ ⟨m, rfl⟩; exact l2 m) ?_; simp only [Act.put, List.setIfInBounds_toArray, List.set_cons_succ, List.set_cons_zero]; go_big_quiet_on) | (go_big_quiet_step (fail)))
        intro w9 hw9
        have hb9 := beyond_below hw9
        go_wp2
        go_ret
        exact ⟨rfl, hbel.trans (hb9.mono hbel.size)⟩
      · have hsame : es.take (k + 1) = fs.take (k + 1) := by rw [List.take_succ_eq_append_getElem hkl, List.take_succ_eq_append_getElem hkm, HT.out, hp, hp2, Subtype.ext (beq_iff_eq.1 heb)]
        have HS := Lib.hid hsame
        clear heb hp hp2 hg1 hg2 hsame
        go_upto_region 6 with fail
        refine wp_region_below (by kernel_rfl) (by kernel_rfl) ?_
        repeat (first | (go_big_quiet_want; refine hload9 (v := .agg (hrow q.1)) 25 (.tmp 19) rfl (by rfl) (by rintro _ ⟨m, rfl⟩; exact l1 m) ?_; simp only [Act.put, List.setIfInBounds_toArray, List.set_cons_succ, List.set_cons_zero]; go_big_quiet_on) | (go_big_quiet_want; refine hload9 (v := .agg (hrow q2.1)) 25 (.tmp 23) rfl (by rfl) (by rintro _ ⟨m, rfl⟩; exact l2 m) ?_; simp only [Act.put, List.setIfInBounds_toArray, List.set_cons_succ, List.set_cons_zero]; go_big_quiet_on) | (go_big_quiet_step (fail)))
        intro w9 hw9
        have hb9 := beyond_below hw9
        go_wp2
        go_roundw
        case rel => exact ⟨k + 1, by omega, by go_num, HS, hbel.trans (hb9.mono hbel.size)⟩
        case measure => (simp [intOf]) <;> omega
    · have d1 : decide ((k : Int) < (n1 : Int)) = false := decide_eq_false (by omega)
      have d1n : decide (k < n1) = false := decide_eq_false hlt
      have hgood : r = true := by
        have := HT.out
        rw [List.take_of_length_le (by rw [HN.out]; omega), List.take_of_length_le (by rw [HM.out]; omega)] at this
        rw [← HF.out]; exact decide_eq_true this
      subst hgood
      go_wp2
      go_ret
      exact ⟨rfl, hbel⟩
  · have e0 : ((n1 : Int) != (n2 : Int)) = true := by simpa using fun h => hnn (by omega)
    have e0n : (n1 != n2) = true := by simpa using hnn
    rw [show hsB es fs = false from decide_eq_false (fun q => hnn (by rw [← hn, ← hm, q]))]
    clear hn hm hnn
    go_enter Tryd.func22, Tryd.ntmps22
    go_wp2
    go_ret
    exact ⟨rfl, Below.refl _ _⟩
end Go.Proofs.YtfikbaoiialfeaaDoor
