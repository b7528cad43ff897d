/- The document's own SHA-256: of one text. -/
import Derived.Test.YtpledhipdiephaaDoorSt3
import Derived.Test.YtpledhipdiephaaDoorMix
import Derived.Test.YtpledhipdiephaaDoorT5
import Derived.WalkKit
import Derived.ProofKit
import Derived.Handy
import Derived.Below
import Derived.Lib.Hide
import Derived.IntWalk
import Derived.Outline
import Derived.WalkLawsBesides
import Derived.WalkSpells
namespace Go.Proofs.YtpledhipdiephaaDoor
open Go.RowKit
attribute [local go_sem] strV
set_option linter.unusedVariables false
theorem Tryd.infoU8r : (Tryd.prog.info? 5).map (fun i => (i.zero, i.size, i.bytes)) = some (some (.int .u8 0), 1, 1) := by kernel_rfl
set_option maxRecDepth 100000 in
set_option maxHeartbeats 3200000 in
theorem consts_any (w : World) :
    Calls Tryd.prog 106 #[] w fun e w' => e = .returned (.agg (wrow ktab)) ∧ Below w.heap.size w w' := by
  go_enter Tryd.func106, Tryd.ntmps106
  have hz : (wrow ktab).size = 64 := rfl
  have hone := wrow_one ktab
  go_wp2_with (refine wpList_storeRowTo rfl (.tmp 0) (.tmp 1) 161 rfl (by rw [hz]; kernel_rfl) rfl (Z := wrow ktab) (by rfl) (heap_push _ _ _) (by rfl) hone ?_)
  refine bodyPost_ret (v := .agg (wrow ktab)) ?_ rfl ?_
  · simp [results, Tryd.results106, Act.put, asAddr]
    exact run_loadVar_row _ _ 161 161 _ (0, 0) _ (setRow_heap _ _ _ _ _ _ (heap_push _ _ _)) Tryd.underlying161 rfl (by rw [hz]; kernel_rfl)
  exact ⟨rfl, below_setRow (Below.alloc (Below.refl _ _) (Nat.le_refl _) _) (Nat.le_refl _) _⟩
theorem qload {P : Program} {o : Oper} {a : Act} {C : World → Prop} {K : Act → Prop} {v : Value} (t : TypeId) (p : Operand) {ad : Value} (hop : o.op = Op.load t p) (hp : a.eval p = ad)
    (hl : ∀ w, C w → (Instr.loadAt t ad).run P w = .ok v w) (h : K (a.put o.dst v)) : o.quiet P a C K := by
  refine ⟨v, fun w hw => ?_, h⟩
  unfold Oper.quietAt
  have := hl w hw
  simp [execOp, hop, hp, this, Result.andThen, Oper.quietUpon]
  try exact hw
/-- A whole row of words is loaded, in whatever world beyond W. -/
theorem load_words {P : Program} {W : World} {g N : Nat} {q : List Int} {t e : TypeId} (hg : W.heap[g]? = some (.cells (wrow q) t (0, 0))) (hu : P.underlying t = some (.array N e)) (hi : (P.info? t).map (·.size) = some N) (hq : q.length = N) (n : Beyond W) :
    (Instr.loadAt t (.pointer (some ⟨g, 0, none⟩))).run P n.x = .ok (.agg (wrow q)) n.x := by
  have hg2 := cells_of hg n.h (Array.getElem?_eq_some_iff.1 hg).1
  simp only [Instr.loadAt, Instr.sureAddr, Sem.run_bind, Sem.run_pure, Result.andThen]
  exact run_loadVar_row _ _ t t (wrow q) (0, 0) _ hg2 hu rfl (by rw [wrow_size, hq]; exact hi)
def slenV : Value → Nat
  | .slice _ n _ => n
  | _ => 0
theorem bv_u8 (x : Int) : bv (u8 x) = .int .u8 (x % 256) := by unfold bv; rw [u8_val]
theorem PadRow.shape {w : World} {base n : Nat} {v : Value} {xs : List Value} (h : PadRow w base v xs) (hn : xs.length = n) : ∃ g cap, v = .slice (some ⟨g, 0, none⟩) n cap ∧ n ≤ cap ∧ g < w.heap.size ∧ base ≤ g := by
  obtain ⟨g, cap, h1, h2, h3, h4, _⟩ := h
  exact ⟨g, cap, by rw [h1, hn], by omega, h3, h2⟩
theorem PadRow.cells {w : World} {base g n cap : Nat} {xs : List Value} (h : PadRow w base (.slice (some ⟨g, 0, none⟩) n cap) xs) : ∀ j y, xs[j]? = some y → w.cell? ⟨g, j, none⟩ = some y := by
  obtain ⟨g', cap', h1, _, _, _, _, h6, _⟩ := h
  simp at h1
  obtain ⟨rfl, _, _⟩ := h1
  exact h6
theorem PadRow.congr {w : World} {base : Nat} {v : Value} {xs ys : List Value} (h : PadRow w base v xs) (e : xs = ys) : PadRow w base v ys := e ▸ h
set_option maxRecDepth 100000 in
set_option maxHeartbeats 12800000 in
theorem refSum_any (s : ByteArray) (w : World) (hsm : s.size ≤ 1000000) :
    Calls Tryd.prog 87 #[.string s] w fun e w' => e = .returned (.agg (hrow (shaF s.data.toList))) ∧ Below w.heap.size w w' := by
  obtain ⟨i0, hi, hz0, hz1, hz2⟩ := info_parts Tryd.infoU8r
  obtain ⟨T, hT⟩ : ∃ T, s.data.toList = T := ⟨_, rfl⟩
  obtain ⟨n, hn⟩ : ∃ n, s.size = n := ⟨_, rfl⟩
  have hTn : T.length = n := by rw [← hT, ← hn]; exact str_len _
  have HT := Lib.hid hT
  have HN := Lib.hid hn
  rw [hn] at hsm
  have g0 : (w.alloc (.cells #[Value.int .u8 0, Value.int .u8 0, Value.int .u8 0, Value.int .u8 0, Value.int .u8 0, Value.int .u8 0, Value.int .u8 0, Value.int .u8 0, Value.int .u8 0, Value.int .u8 0, Value.int .u8 0, Value.int .u8 0, Value.int .u8 0, Value.int .u8 0, Value.int .u8 0, Value.int .u8 0, Value.int .u8 0, Value.int .u8 0, Value.int .u8 0, Value.int .u8 0, Value.int .u8 0, Value.int .u8 0, Value.int .u8 0, Value.int .u8 0, Value.int .u8 0, Value.int .u8 0, Value.int .u8 0, Value.int .u8 0, Value.int .u8 0, Value.int .u8 0, Value.int .u8 0, Value.int .u8 0] 35)).heap[w.heap.size]? = some (.cells #[Value.int .u8 0, Value.int .u8 0, Value.int .u8 0, Value.int .u8 0, Value.int .u8 0, Value.int .u8 0, Value.int .u8 0, Value.int .u8 0, Value.int .u8 0, Value.int .u8 0, Value.int .u8 0, Value.int .u8 0, Value.int .u8 0, Value.int .u8 0, Value.int .u8 0, Value.int .u8 0, Value.int .u8 0, Value.int .u8 0, Value.int .u8 0, Value.int .u8 0, Value.int .u8 0, Value.int .u8 0, Value.int .u8 0, Value.int .u8 0, Value.int .u8 0, Value.int .u8 0, Value.int .u8 0, Value.int .u8 0, Value.int .u8 0, Value.int .u8 0, Value.int .u8 0, Value.int .u8 0] 35 (0, 0)) := heap_push _ _ _
  have hbA : Below w.heap.size w (w.alloc (.cells #[Value.int .u8 0, Value.int .u8 0, Value.int .u8 0, Value.int .u8 0, Value.int .u8 0, Value.int .u8 0, Value.int .u8 0, Value.int .u8 0, Value.int .u8 0, Value.int .u8 0, Value.int .u8 0, Value.int .u8 0, Value.int .u8 0, Value.int .u8 0, Value.int .u8 0, Value.int .u8 0, Value.int .u8 0, Value.int .u8 0, Value.int .u8 0, Value.int .u8 0, Value.int .u8 0, Value.int .u8 0, Value.int .u8 0, Value.int .u8 0, Value.int .u8 0, Value.int .u8 0, Value.int .u8 0, Value.int .u8 0, Value.int .u8 0, Value.int .u8 0, Value.int .u8 0, Value.int .u8 0] 35)) := Below.alloc (Below.refl _ _) (Nat.le_refl _) _
  go_enter Tryd.func87, Tryd.ntmps87
  go_upto_region 1 with fail
  refine wp_nameE _ (fun W1 hX => ?_)
  have y0 : W1.heap[w.heap.size]? = some (.cells #[Value.int .u8 0, Value.int .u8 0, Value.int .u8 0, Value.int .u8 0, Value.int .u8 0, Value.int .u8 0, Value.int .u8 0, Value.int .u8 0, Value.int .u8 0, Value.int .u8 0, Value.int .u8 0, Value.int .u8 0, Value.int .u8 0, Value.int .u8 0, Value.int .u8 0, Value.int .u8 0, Value.int .u8 0, Value.int .u8 0, Value.int .u8 0, Value.int .u8 0, Value.int .u8 0, Value.int .u8 0, Value.int .u8 0, Value.int .u8 0, Value.int .u8 0, Value.int .u8 0, Value.int .u8 0, Value.int .u8 0, Value.int .u8 0, Value.int .u8 0, Value.int .u8 0, Value.int .u8 0] 35 (0, 0)) := by rw [hX]; exact g0
  have hb1 : Below w.heap.size w W1 := by rw [hX]; exact hbA
  have hl1 : w.heap.size < W1.heap.size := (Array.getElem?_eq_some_iff.1 y0).1
  clear hX g0 hbA hn
  have hcv0 := Lib.run_convert_string_bytes (P := Tryd.prog) W1 9 159 5 s Tryd.underlying9 Tryd.underlying159 Tryd.underlying5
  have hP := PadRow.of_bytes W1 5 s (base := W1.heap.size) (Nat.le_refl _) (by have := HN.out; unfold maxLen; omega)
  have hb2 := bytes_below W1 s
  obtain ⟨V2, hV2⟩ : ∃ V2, Lib.bytesWorld W1 5 s = V2 := ⟨_, rfl⟩
  obtain ⟨cap, hcap⟩ : ∃ c, grownCap W1 s.size 0 5 = c := ⟨_, rfl⟩
  rw [hV2, hcap] at hcv0 hP
  rw [hV2] at hb2
  rw [hT, show (T.map fun b => Value.int .u8 b.toNat) = T.map bv from rfl] at hP
  obtain ⟨N1, hN1⟩ : ∃ N1, W1.heap.size = N1 := ⟨_, rfl⟩
  rw [hN1] at hP hb2 hl1
  have hs2 : N1 ≤ V2.heap.size := by have := hb2.size; omega
  have hmx : (T.map bv).length + 1 ≤ maxLen := by rw [List.length_map]; unfold maxLen; omega
  have hmb : ((T.map bv).length + 1) * 1 ≤ 140737488355328 := by rw [List.length_map]; omega
  rw [hN1] at hcv0
  clear hV2 hcap hN1 hT
  go_upto_region 2 with (at_builtin; refine wpList_push_pad rfl (.tmp 12) (.tmp 13) 159 rfl 5 i0 (.int .u8 0) 1 Tryd.underlying159 hi hz0 hz1 hz2 rfl hP (by rfl) _ (by rfl) rfl ?_ ?_ ?_ ?_; exact hmx; exact hmb; exact hs2)
  intro v1 w3 hp3 hb3
  have hpk : (padT T 0).map bv = T.map bv ++ [Value.int .u8 128] := by simp [padT]; rfl
  rw [← hpk] at hp3
  obtain ⟨g1, cap1, rfl, hc1, hg1, _⟩ := hp3.shape (n := n + 1) (by rw [List.length_map, padT_len, hTn])
  have hb3 := hb2.trans hb3
  clear hpk hcv0 hP hmx hmb hb2 hs2
  go_wp2
  go_loopw [3] (fun v wr => ∃ (k g cap : Nat), k ≤ padN n ∧ PadRow wr N1 (.slice (some ⟨g, 0, none⟩) (n + 1 + k) cap) ((padT T k).map bv) ∧ Below N1 W1 wr ∧ v = .slice (some ⟨g, 0, none⟩) (n + 1 + k) cap) (fun v _ => n + 1 + padN n - slenV v)
  case atStart => exact ⟨0, g1, cap1, Nat.zero_le _, hp3, hb3, rfl⟩
  case round =>
    clear hp3 hb3 hc1 hg1
    obtain ⟨k, g, cap, hk, hp, hb, rfl⟩ := hrel
    have hpN : padN n < 64 := by unfold padN; omega
    have hpm := pad_mod T (k := k) (by rw [hTn]; exact hk)
    rw [hTn] at hpm
    have hsz := hb.size
    by_cases hkp : k = padN n
    · have d1 : (((n : Int) + 1 + (k : Int)) % 64 == 56) = true := by rw [beq_iff_eq]; have := hpm.2 hkp; omega
      have d2 : (((n : Int) + 1 + (k : Int)) % 64 != 56) = false := by unfold bne; rw [d1]; rfl
      have hml : (n + 1 + k) % 64 = 56 := hpm.2 hkp
      clear hpm
      have e1 : IntKind.u64.wrap (n : Int) = n := by rw [IntKind.wrap_u64]; omega
      have e2 : IntKind.u64.wrap ((n : Int) * 8) = (n : Int) * 8 := by rw [IntKind.wrap_u64]; omega
      have e3 : (n : Int) % 18446744073709551616 = n := by omega
      have e4 : (n : Int) * 8 % 18446744073709551616 = (n : Int) * 8 := by omega
      have hsn : (s.size : Int) = n := by rw [HN.out]
      have HKP := Lib.hid hkp
      have hk64 : k < 64 := by omega
      clear hkp
      go_upto_region 6 with fail
      have hle : (lenB n).length = 8 := rfl
      obtain ⟨LB, hLB⟩ : ∃ l, lenB n = l := ⟨_, rfl⟩
      rw [hLB] at hle
      have HB := Lib.hid hLB
      clear d1 d2 hLB hpN hk e1 e2 e3 e4 hsn
      have hTk : (padT T k).length = n + 1 + k := by rw [padT_len, hTn]
      go_loopw [5, 3] (fun i v wr => ∃ (j g cap : Nat), j ≤ 8 ∧ PadRow wr N1 (.slice (some ⟨g, 0, none⟩) (n + 1 + k + j) cap) ((padT T k ++ LB.take j).map bv) ∧ Below N1 W1 wr ∧ i = .int .i64 (7 - (j : Int)) ∧ v = .slice (some ⟨g, 0, none⟩) (n + 1 + k + j) cap) (fun i _ _ => (intOf i + 1).toNat)
      case atStart => exact ⟨0, g, cap, by omega, by rw [List.take_zero, List.append_nil]; exact hp, hb, rfl, rfl⟩
      case round =>
        clear hp hb
        obtain ⟨j, g, cap, hj, hp, hb, hi7, hv7⟩ := hrel
        have hml2 : ((padT T k ++ LB.take j).map bv).length = n + 1 + k + j := by rw [List.length_map, List.length_append, hTk, List.length_take]; omega
        by_cases hj8 : j = 8
        · subst hj8
          have hi8 : _ = Value.int .i64 (-1) := hi7
          subst hi8
          clear hi7 hj
          obtain ⟨F, hF⟩ : ∃ F, padT T k ++ LB = F := ⟨_, rfl⟩
          have HF : Hid (shaFull T = F) := Lib.hid (by unfold shaFull; rw [hTn, HB.out, ← HKP.out]; exact hF)
          rw [List.take_of_length_le (by omega), hF] at hp hml2
          obtain ⟨q, hq⟩ : ∃ q, n + 1 + k + 8 = 64 * q := ⟨(n + 1 + k + 8) / 64, by omega⟩
          obtain ⟨m, hm⟩ : ∃ m, n + 1 + k + 8 = m := ⟨_, rfl⟩
          rw [hm] at hp hv7 hq hml2
          subst hv7
          have hFm : F.length = m := by rw [← hml2, List.length_map]
          have hmb : m ≤ 1000072 := by omega
          have HQ := Lib.hid hq
          have hcells := hp.cells
          obtain ⟨g0, cap0, hg0, hcap0, hglt, _⟩ := hp.shape (n := m) hml2
          simp at hg0
          obtain ⟨rfl, rfl⟩ := hg0
          have y0 := (hb.block w.heap.size hl1).trans y0
          have hsz := hb.size
          clear hml2 hF hp hml hTk hm hq hle
          have hz8 : (wrow stab).size = 8 := rfl
          go_upto_region 10 with (refine wpList_storeRowTo rfl (.tmp 6) (.tmp 38) 153 rfl (by rw [hz8]; kernel_rfl) rfl (Z := wrow stab) (by rfl) (heap_push _ _ _) (by rfl) (wrow_one stab) ?_)
          refine wp_nameE _ (fun W5 hX => ?_)
          obtain ⟨b6, hb6⟩ : ∃ b, wr.heap.size = b := ⟨_, rfl⟩
          have y6 : W5.heap[b6]? = some (.cells (wrow stab) 153 (0, 0)) := by rw [hX, ← hb6]; exact setRow_heap _ _ _ _ _ _ (heap_push _ _ _)
          have hb5 : Below b6 wr W5 := by rw [hX, ← hb6]; exact below_setRow (Below.alloc (Below.refl _ _) (Nat.le_refl _) _) (Nat.le_refl _) _
          rw [hb6] at hglt hsz ⊢
          have y0 := (hb5.block w.heap.size (by omega)).trans y0
          have hcells : ∀ j y, (F.map bv)[j]? = some y → W5.cell? ⟨g, j, none⟩ = some y := fun j y h => (hb5.cell (p := ⟨g, j, none⟩) hglt).trans (hcells j y h)
          have hb := hb.trans (hb5.mono (by omega))
          have hl5 : b6 < W5.heap.size := (Array.getElem?_eq_some_iff.1 y6).1
          clear hX hb5 hb6
          have hz64 : (wrow ktab).size = 64 := rfl
          go_upto_region 11 with (first | (go_at_call 106; refine (consts_any _).mono ?_; rintro e w6 ⟨rfl, hb6⟩) | (refine wpList_storeRowTo rfl (.tmp 7) (.tmp 39) 161 rfl (by rw [hz64]; kernel_rfl) rfl (Z := wrow ktab) (by rfl) (heap_push _ _ _) (by rfl) (wrow_one ktab) ?_))
          refine wp_nameE _ (fun W7 hX => ?_)
          obtain ⟨b7, hb7⟩ : ∃ b, w6.heap.size = b := ⟨_, rfl⟩
          have y7 : W7.heap[b7]? = some (.cells (wrow ktab) 161 (0, 0)) := by rw [hX, ← hb7]; exact setRow_heap _ _ _ _ _ _ (heap_push _ _ _)
          have hb8 : Below b7 w6 W7 := by rw [hX, ← hb7]; exact below_setRow (Below.alloc (Below.refl _ _) (Nat.le_refl _) _) (Nat.le_refl _) _
          have hs6 := hb6.size
          rw [hb7] at hs6 ⊢
          have hb9 : Below W5.heap.size W5 W7 := hb6.trans (hb8.mono hs6)
          have y0 := (hb9.block w.heap.size (by omega)).trans y0
          have y6 := (hb9.block b6 (by omega)).trans y6
          have hcells : ∀ j y, (F.map bv)[j]? = some y → W7.cell? ⟨g, j, none⟩ = some y := fun j y h => (hb9.cell (p := ⟨g, j, none⟩) (show g < _ by omega)).trans (hcells j y h)
          have hb := hb.trans (hb9.mono (by omega))
          have hl7 : b7 < W7.heap.size := (Array.getElem?_eq_some_iff.1 y7).1
          have h67 : b6 < b7 := by omega
          clear hX hb8 hb9 hb7 hb6 hs6 hl5
          go_upto_region 12 with fail
          go_loopw [8] (fun v wr => ∃ r : Nat, r ≤ q ∧ Below N1 W1 wr ∧ b7 < wr.heap.size ∧ (∀ j y, (F.map bv)[j]? = some y → wr.cell? ⟨g, j, none⟩ = some y) ∧ wr.heap[w.heap.size]? = some (.cells #[Value.int .u8 0, Value.int .u8 0, Value.int .u8 0, Value.int .u8 0, Value.int .u8 0, Value.int .u8 0, Value.int .u8 0, Value.int .u8 0, Value.int .u8 0, Value.int .u8 0, Value.int .u8 0, Value.int .u8 0, Value.int .u8 0, Value.int .u8 0, Value.int .u8 0, Value.int .u8 0, Value.int .u8 0, Value.int .u8 0, Value.int .u8 0, Value.int .u8 0, Value.int .u8 0, Value.int .u8 0, Value.int .u8 0, Value.int .u8 0, Value.int .u8 0, Value.int .u8 0, Value.int .u8 0, Value.int .u8 0, Value.int .u8 0, Value.int .u8 0, Value.int .u8 0, Value.int .u8 0] 35 (0, 0)) ∧ wr.heap[b6]? = some (.cells (wrow (hs F r)) 153 (0, 0)) ∧ wr.heap[b7]? = some (.cells (wrow ktab) 161 (0, 0)) ∧ v = .int .i64 (64 * (r : Int))) (fun v _ => m - (intOf v).toNat)
          case atStart => exact ⟨0, Nat.zero_le _, hb, hl7, hcells, y0, y6, y7, rfl⟩
          case round =>
            clear hb hl7 hcells y0 y6 y7
            obtain ⟨r, hr, hb, hl7, hcells, y0, y6, y7, rfl⟩ := hrel
            by_cases hlt : r < q
            · have hqm := HQ.out
              have d1 : decide (64 * (r : Int) < (m : Int)) = true := decide_eq_true (by omega)
              have e1 : IntKind.i64.wrap (64 * (r : Int) + 64) = 64 * (r : Int) + 64 := IntWalk.i64_in _ (by omega)
              have t1 : (64 * (r : Int)).toNat = 64 * r := by omega
              have t2 : (64 * (r : Int) + 64).toNat = 64 * r + 64 := by omega
              have n1 : (0 : Int) ≤ 64 * (r : Int) := by omega
              have n2 : (64 * (r : Int)) ≤ 64 * (r : Int) + 64 := by omega
              have n3 : 64 * (r : Int) + 64 ≤ (cap : Int) := by omega
              have n4 : 64 * r + 64 - 64 * r = 64 := by omega
              have hsB : ((F.drop (64 * r)).take 64).length = 64 := by rw [List.length_take, List.length_drop]; omega
              have CM := fun (V : World) (hV : Below wr.heap.size wr V) => mix_any g (64 * r) (cap - 64 * r) (hs F r) ((F.drop (64 * r)).take 64) V (hs_len _ _) hsB (by have := hV.size; omega) (fun j hj => by rw [hV.cell (p := ⟨g, 64 * r + j, none⟩) (show g < _ by omega)]; refine hcells _ _ ?_; rw [List.getElem?_map, List.getElem?_eq_getElem (by omega)]; simp [byt, bv, hj, List.getElem?_drop]; rw [List.getElem?_eq_getElem (by omega)]; rfl)
              have l8 := fun (n : Beyond wr) => load_words (t := 153) (N := 8) y6 Tryd.underlying153 (by kernel_rfl) (by rw [hs_len]) n
              have l64 := fun (n : Beyond wr) => load_words (t := 161) (N := 64) y7 Tryd.underlying161 (by kernel_rfl) rfl n
              obtain ⟨S, hS⟩ : ∃ S, hs F r = S := ⟨_, rfl⟩
              have hSn : (comp S ((F.drop (64 * r)).take 64)) = hs F (r + 1) := by rw [← hS]; rfl
              rw [hS] at CM l8 y6
              rw [hSn] at CM
              have HN2 := Lib.hid hqm
              have HSl : Hid (S.length = 8) := Lib.hid (by rw [← hS]; exact hs_len _ _)
              clear hqm hSn hS
              go_upto_region 14 with fail
              obtain ⟨hcb, hfb⟩ := beyond_cells (W := wr)
              refine wp_region_below_tail 8 (by kernel_rfl) (by kernel_rfl) ?_
              simp only [List.take_succ_cons, List.take_zero, List.drop_succ_cons, List.drop_zero]
              repeat (first | (go_big_quiet_want; refine qload (v := .agg (wrow S)) 153 (.tmp 6) rfl (by rfl) (by rintro _ ⟨n, rfl⟩; exact l8 n) ?_; simp only [Act.put, List.setIfInBounds_toArray, List.set_cons_succ, List.set_cons_zero]; go_big_quiet_on) | (go_big_quiet_want; refine qload (v := .agg (wrow ktab)) 161 (.tmp 7) rfl (by rfl) (by rintro _ ⟨n, rfl⟩; exact l64 n) ?_; simp only [Act.put, List.setIfInBounds_toArray, List.set_cons_succ, List.set_cons_zero]; go_big_quiet_on) | (go_big_quiet_step ((go_at_call 107; exact quiet_below (CM _ (Beyond.h _))))))
              intro w9 hw9
              have hb9 := beyond_below hw9
              clear hcb hfb hw9 CM l8 l64
              have y0 := cells_of y0 hb9 (by omega)
              have y6 := cells_of y6 hb9 (by omega)
              have y7 := cells_of y7 hb9 hl7
              have hcells : ∀ j y, (F.map bv)[j]? = some y → w9.cell? ⟨g, j, none⟩ = some y := fun j y h => (hb9.cell (p := ⟨g, j, none⟩) (show g < _ by omega)).trans (hcells j y h)
              have hb := hb.trans (hb9.mono (by omega))
              have hl7 := Nat.lt_of_lt_of_le hl7 hb9.size
              have hone := wrow_one (hs F (r + 1))
              have hSz : (wrow (hs F (r + 1))).size = 8 := by rw [wrow_size, hs_len]
              have hSz2 : (wrow S).size = 8 := by rw [wrow_size, HSl.out]
              go_wp2_with (refine wpList_storeRowTo rfl (.tmp 6) (.tmp 53) 153 rfl (by rw [hSz]; kernel_rfl) rfl (by rfl) y6 (by rw [hSz, hSz2]) hone ?_)
              go_roundw
              case rel => exact ⟨r + 1, by omega, below_setRow hb (by omega) _, Nat.lt_of_lt_of_le hl7 (below_setRow (Below.refl b6 w9) (Nat.le_refl _) _).size, fun j y h => (World.cell?_of_block (setRow_other _ _ _ _ (show g ≠ b6 by omega))).trans (hcells j y h), (setRow_other _ _ _ _ (by omega)).trans y0, setRow_heap _ _ _ _ _ _ y6, (setRow_other _ _ _ _ (by omega)).trans y7, by go_num⟩
              case measure => have := HN2.out; (simp [intOf]) <;> omega
            · obtain rfl : r = q := by omega
              have hqm := HQ.out
              have d1 : decide (64 * (r : Int) < (m : Int)) = false := decide_eq_false (by omega)
              have HO0 : shaF T = out32 (hs F r) := by unfold shaF; rw [HF.out, hFm, show m / 64 = r by omega]
              obtain ⟨s0, s1, s2, s3, s4, s5, s6, s7, hS8⟩ := list8 (hs_len F r)
              rw [hS8] at y6 HO0
              have HO := Lib.hid HO0
              have hOl : (out32 [s0, s1, s2, s3, s4, s5, s6, s7]).length = 32 := rfl
              clear HO0 hS8 hcells y7
              go_upto_region 16 with fail
              refine wp_nameE _ (fun W9 hX => ?_)
              obtain ⟨b9, hb9⟩ : ∃ b, wr.heap.size = b := ⟨_, rfl⟩
              have y9 : W9.heap[b9]? = some (.cells (prow (out32 [s0, s1, s2, s3, s4, s5, s6, s7]) 0) 35 (0, 0)) := by rw [hX, ← hb9]; exact heap_push _ _ _
              have hbX : Below b9 wr W9 := by rw [hX, ← hb9]; exact Below.alloc (Below.refl _ _) (Nat.le_refl _) _
              have y0 := cells_of y0 hbX (by omega)
              have y6 := cells_of y6 hbX (by omega)
              have hb := hb.trans (hbX.mono (by omega))
              rw [hb9] at hl7 ⊢
              clear hX hbX hb9 hqm
              go_upto_region 17 with fail
              go_loopw [10] (fun v wr => ∃ i : Nat, i ≤ 32 ∧ Below N1 W1 wr ∧ wr.heap[w.heap.size]? = some (.cells #[Value.int .u8 0, Value.int .u8 0, Value.int .u8 0, Value.int .u8 0, Value.int .u8 0, Value.int .u8 0, Value.int .u8 0, Value.int .u8 0, Value.int .u8 0, Value.int .u8 0, Value.int .u8 0, Value.int .u8 0, Value.int .u8 0, Value.int .u8 0, Value.int .u8 0, Value.int .u8 0, Value.int .u8 0, Value.int .u8 0, Value.int .u8 0, Value.int .u8 0, Value.int .u8 0, Value.int .u8 0, Value.int .u8 0, Value.int .u8 0, Value.int .u8 0, Value.int .u8 0, Value.int .u8 0, Value.int .u8 0, Value.int .u8 0, Value.int .u8 0, Value.int .u8 0, Value.int .u8 0] 35 (0, 0)) ∧ wr.heap[b6]? = some (.cells (wrow [s0, s1, s2, s3, s4, s5, s6, s7]) 153 (0, 0)) ∧ wr.heap[b9]? = some (.cells (prow (out32 [s0, s1, s2, s3, s4, s5, s6, s7]) i) 35 (0, 0)) ∧ v = .int .i64 i) (fun v _ => 32 - (intOf v).toNat)
              case atStart => exact ⟨0, by omega, hb, y0, y6, y9, rfl⟩
              case round =>
                clear hb y0 y6 y9 d1
                obtain ⟨i, hi, hb, y0, y6, y9, rfl⟩ := hrel
                by_cases hlt : i < 32
                · rcases (show i = 0 ∨ i = 1 ∨ i = 2 ∨ i = 3 ∨ i = 4 ∨ i = 5 ∨ i = 6 ∨ i = 7 ∨ i = 8 ∨ i = 9 ∨ i = 10 ∨ i = 11 ∨ i = 12 ∨ i = 13 ∨ i = 14 ∨ i = 15 ∨ i = 16 ∨ i = 17 ∨ i = 18 ∨ i = 19 ∨ i = 20 ∨ i = 21 ∨ i = 22 ∨ i = 23 ∨ i = 24 ∨ i = 25 ∨ i = 26 ∨ i = 27 ∨ i = 28 ∨ i = 29 ∨ i = 30 ∨ i = 31 by omega) with rfl | rfl | rfl | rfl | rfl | rfl | rfl | rfl | rfl | rfl | rfl | rfl | rfl | rfl | rfl | rfl | rfl | rfl | rfl | rfl | rfl | rfl | rfl | rfl | rfl | rfl | rfl | rfl | rfl | rfl | rfl | rfl
                  · have c0 : wr.cell? ⟨b6, 0, none⟩ = some (.int .u32 s0) := by rw [cell_heap y6]; rfl
                    have cz : wr.cell? ⟨b9, 0, none⟩ = some (.int .u8 0) := by rw [cell_heap y9]; exact prow_far hOl (by omega) (by omega)
                    have fz : wr.frozen? ⟨b9, 0, none⟩ = false := frozen_heap y9 0
                    go_wp2
                    go_roundw
                    case rel =>
                      have p0 := row_put5 (k := 0) (v := .int .u8 ((s0 / 16777216) % 256)) y9
                      rw [prow_u8 hOl (show (0 : Nat) < 32 by decide) (x := (s0 / 16777216)) (by rfl)] at p0
                      exact ⟨1, by omega, hb.setCell (p := ⟨b9, 0, none⟩) (by show N1 ≤ b9; omega) _, row_set y0 (by omega), row_set y6 (by omega), p0, by go_num⟩
                    case measure => (simp [intOf])
                  · have c0 : wr.cell? ⟨b6, 0, none⟩ = some (.int .u32 s0) := by rw [cell_heap y6]; rfl
                    have cz : wr.cell? ⟨b9, 1, none⟩ = some (.int .u8 0) := by rw [cell_heap y9]; exact prow_far hOl (by omega) (by omega)
                    have fz : wr.frozen? ⟨b9, 1, none⟩ = false := frozen_heap y9 1
                    go_wp2
                    go_roundw
                    case rel =>
                      have p0 := row_put5 (k := 1) (v := .int .u8 ((s0 / 65536) % 256)) y9
                      rw [prow_u8 hOl (show (1 : Nat) < 32 by decide) (x := (s0 / 65536)) (by rfl)] at p0
                      exact ⟨2, by omega, hb.setCell (p := ⟨b9, 1, none⟩) (by show N1 ≤ b9; omega) _, row_set y0 (by omega), row_set y6 (by omega), p0, by go_num⟩
                    case measure => (simp [intOf])
                  · have c0 : wr.cell? ⟨b6, 0, none⟩ = some (.int .u32 s0) := by rw [cell_heap y6]; rfl
                    have cz : wr.cell? ⟨b9, 2, none⟩ = some (.int .u8 0) := by rw [cell_heap y9]; exact prow_far hOl (by omega) (by omega)
                    have fz : wr.frozen? ⟨b9, 2, none⟩ = false := frozen_heap y9 2
                    go_wp2
                    go_roundw
                    case rel =>
                      have p0 := row_put5 (k := 2) (v := .int .u8 ((s0 / 256) % 256)) y9
                      rw [prow_u8 hOl (show (2 : Nat) < 32 by decide) (x := (s0 / 256)) (by rfl)] at p0
                      exact ⟨3, by omega, hb.setCell (p := ⟨b9, 2, none⟩) (by show N1 ≤ b9; omega) _, row_set y0 (by omega), row_set y6 (by omega), p0, by go_num⟩
                    case measure => (simp [intOf])
                  · have c0 : wr.cell? ⟨b6, 0, none⟩ = some (.int .u32 s0) := by rw [cell_heap y6]; rfl
                    have cz : wr.cell? ⟨b9, 3, none⟩ = some (.int .u8 0) := by rw [cell_heap y9]; exact prow_far hOl (by omega) (by omega)
                    have fz : wr.frozen? ⟨b9, 3, none⟩ = false := frozen_heap y9 3
                    go_wp2
                    go_roundw
                    case rel =>
                      have p0 := row_put5 (k := 3) (v := .int .u8 ((s0) % 256)) y9
                      rw [prow_u8 hOl (show (3 : Nat) < 32 by decide) (x := (s0)) (by rfl)] at p0
                      exact ⟨4, by omega, hb.setCell (p := ⟨b9, 3, none⟩) (by show N1 ≤ b9; omega) _, row_set y0 (by omega), row_set y6 (by omega), p0, by go_num⟩
                    case measure => (simp [intOf])
                  · have c0 : wr.cell? ⟨b6, 1, none⟩ = some (.int .u32 s1) := by rw [cell_heap y6]; rfl
                    have cz : wr.cell? ⟨b9, 4, none⟩ = some (.int .u8 0) := by rw [cell_heap y9]; exact prow_far hOl (by omega) (by omega)
                    have fz : wr.frozen? ⟨b9, 4, none⟩ = false := frozen_heap y9 4
                    go_wp2
                    go_roundw
                    case rel =>
                      have p0 := row_put5 (k := 4) (v := .int .u8 ((s1 / 16777216) % 256)) y9
                      rw [prow_u8 hOl (show (4 : Nat) < 32 by decide) (x := (s1 / 16777216)) (by rfl)] at p0
                      exact ⟨5, by omega, hb.setCell (p := ⟨b9, 4, none⟩) (by show N1 ≤ b9; omega) _, row_set y0 (by omega), row_set y6 (by omega), p0, by go_num⟩
                    case measure => (simp [intOf])
                  · have c0 : wr.cell? ⟨b6, 1, none⟩ = some (.int .u32 s1) := by rw [cell_heap y6]; rfl
                    have cz : wr.cell? ⟨b9, 5, none⟩ = some (.int .u8 0) := by rw [cell_heap y9]; exact prow_far hOl (by omega) (by omega)
                    have fz : wr.frozen? ⟨b9, 5, none⟩ = false := frozen_heap y9 5
                    go_wp2
                    go_roundw
                    case rel =>
                      have p0 := row_put5 (k := 5) (v := .int .u8 ((s1 / 65536) % 256)) y9
                      rw [prow_u8 hOl (show (5 : Nat) < 32 by decide) (x := (s1 / 65536)) (by rfl)] at p0
                      exact ⟨6, by omega, hb.setCell (p := ⟨b9, 5, none⟩) (by show N1 ≤ b9; omega) _, row_set y0 (by omega), row_set y6 (by omega), p0, by go_num⟩
                    case measure => (simp [intOf])
                  · have c0 : wr.cell? ⟨b6, 1, none⟩ = some (.int .u32 s1) := by rw [cell_heap y6]; rfl
                    have cz : wr.cell? ⟨b9, 6, none⟩ = some (.int .u8 0) := by rw [cell_heap y9]; exact prow_far hOl (by omega) (by omega)
                    have fz : wr.frozen? ⟨b9, 6, none⟩ = false := frozen_heap y9 6
                    go_wp2
                    go_roundw
                    case rel =>
                      have p0 := row_put5 (k := 6) (v := .int .u8 ((s1 / 256) % 256)) y9
                      rw [prow_u8 hOl (show (6 : Nat) < 32 by decide) (x := (s1 / 256)) (by rfl)] at p0
                      exact ⟨7, by omega, hb.setCell (p := ⟨b9, 6, none⟩) (by show N1 ≤ b9; omega) _, row_set y0 (by omega), row_set y6 (by omega), p0, by go_num⟩
                    case measure => (simp [intOf])
                  · have c0 : wr.cell? ⟨b6, 1, none⟩ = some (.int .u32 s1) := by rw [cell_heap y6]; rfl
                    have cz : wr.cell? ⟨b9, 7, none⟩ = some (.int .u8 0) := by rw [cell_heap y9]; exact prow_far hOl (by omega) (by omega)
                    have fz : wr.frozen? ⟨b9, 7, none⟩ = false := frozen_heap y9 7
                    go_wp2
                    go_roundw
                    case rel =>
                      have p0 := row_put5 (k := 7) (v := .int .u8 ((s1) % 256)) y9
                      rw [prow_u8 hOl (show (7 : Nat) < 32 by decide) (x := (s1)) (by rfl)] at p0
                      exact ⟨8, by omega, hb.setCell (p := ⟨b9, 7, none⟩) (by show N1 ≤ b9; omega) _, row_set y0 (by omega), row_set y6 (by omega), p0, by go_num⟩
                    case measure => (simp [intOf])
                  · have c0 : wr.cell? ⟨b6, 2, none⟩ = some (.int .u32 s2) := by rw [cell_heap y6]; rfl
                    have cz : wr.cell? ⟨b9, 8, none⟩ = some (.int .u8 0) := by rw [cell_heap y9]; exact prow_far hOl (by omega) (by omega)
                    have fz : wr.frozen? ⟨b9, 8, none⟩ = false := frozen_heap y9 8
                    go_wp2
                    go_roundw
                    case rel =>
                      have p0 := row_put5 (k := 8) (v := .int .u8 ((s2 / 16777216) % 256)) y9
                      rw [prow_u8 hOl (show (8 : Nat) < 32 by decide) (x := (s2 / 16777216)) (by rfl)] at p0
                      exact ⟨9, by omega, hb.setCell (p := ⟨b9, 8, none⟩) (by show N1 ≤ b9; omega) _, row_set y0 (by omega), row_set y6 (by omega), p0, by go_num⟩
                    case measure => (simp [intOf])
                  · have c0 : wr.cell? ⟨b6, 2, none⟩ = some (.int .u32 s2) := by rw [cell_heap y6]; rfl
                    have cz : wr.cell? ⟨b9, 9, none⟩ = some (.int .u8 0) := by rw [cell_heap y9]; exact prow_far hOl (by omega) (by omega)
                    have fz : wr.frozen? ⟨b9, 9, none⟩ = false := frozen_heap y9 9
                    go_wp2
                    go_roundw
                    case rel =>
                      have p0 := row_put5 (k := 9) (v := .int .u8 ((s2 / 65536) % 256)) y9
                      rw [prow_u8 hOl (show (9 : Nat) < 32 by decide) (x := (s2 / 65536)) (by rfl)] at p0
                      exact ⟨10, by omega, hb.setCell (p := ⟨b9, 9, none⟩) (by show N1 ≤ b9; omega) _, row_set y0 (by omega), row_set y6 (by omega), p0, by go_num⟩
                    case measure => (simp [intOf])
                  · have c0 : wr.cell? ⟨b6, 2, none⟩ = some (.int .u32 s2) := by rw [cell_heap y6]; rfl
                    have cz : wr.cell? ⟨b9, 10, none⟩ = some (.int .u8 0) := by rw [cell_heap y9]; exact prow_far hOl (by omega) (by omega)
                    have fz : wr.frozen? ⟨b9, 10, none⟩ = false := frozen_heap y9 10
                    go_wp2
                    go_roundw
                    case rel =>
                      have p0 := row_put5 (k := 10) (v := .int .u8 ((s2 / 256) % 256)) y9
                      rw [prow_u8 hOl (show (10 : Nat) < 32 by decide) (x := (s2 / 256)) (by rfl)] at p0
                      exact ⟨11, by omega, hb.setCell (p := ⟨b9, 10, none⟩) (by show N1 ≤ b9; omega) _, row_set y0 (by omega), row_set y6 (by omega), p0, by go_num⟩
                    case measure => (simp [intOf])
                  · have c0 : wr.cell? ⟨b6, 2, none⟩ = some (.int .u32 s2) := by rw [cell_heap y6]; rfl
                    have cz : wr.cell? ⟨b9, 11, none⟩ = some (.int .u8 0) := by rw [cell_heap y9]; exact prow_far hOl (by omega) (by omega)
                    have fz : wr.frozen? ⟨b9, 11, none⟩ = false := frozen_heap y9 11
                    go_wp2
                    go_roundw
                    case rel =>
                      have p0 := row_put5 (k := 11) (v := .int .u8 ((s2) % 256)) y9
                      rw [prow_u8 hOl (show (11 : Nat) < 32 by decide) (x := (s2)) (by rfl)] at p0
                      exact ⟨12, by omega, hb.setCell (p := ⟨b9, 11, none⟩) (by show N1 ≤ b9; omega) _, row_set y0 (by omega), row_set y6 (by omega), p0, by go_num⟩
                    case measure => (simp [intOf])
                  · have c0 : wr.cell? ⟨b6, 3, none⟩ = some (.int .u32 s3) := by rw [cell_heap y6]; rfl
                    have cz : wr.cell? ⟨b9, 12, none⟩ = some (.int .u8 0) := by rw [cell_heap y9]; exact prow_far hOl (by omega) (by omega)
                    have fz : wr.frozen? ⟨b9, 12, none⟩ = false := frozen_heap y9 12
                    go_wp2
                    go_roundw
                    case rel =>
                      have p0 := row_put5 (k := 12) (v := .int .u8 ((s3 / 16777216) % 256)) y9
                      rw [prow_u8 hOl (show (12 : Nat) < 32 by decide) (x := (s3 / 16777216)) (by rfl)] at p0
                      exact ⟨13, by omega, hb.setCell (p := ⟨b9, 12, none⟩) (by show N1 ≤ b9; omega) _, row_set y0 (by omega), row_set y6 (by omega), p0, by go_num⟩
                    case measure => (simp [intOf])
                  · have c0 : wr.cell? ⟨b6, 3, none⟩ = some (.int .u32 s3) := by rw [cell_heap y6]; rfl
                    have cz : wr.cell? ⟨b9, 13, none⟩ = some (.int .u8 0) := by rw [cell_heap y9]; exact prow_far hOl (by omega) (by omega)
                    have fz : wr.frozen? ⟨b9, 13, none⟩ = false := frozen_heap y9 13
                    go_wp2
                    go_roundw
                    case rel =>
                      have p0 := row_put5 (k := 13) (v := .int .u8 ((s3 / 65536) % 256)) y9
                      rw [prow_u8 hOl (show (13 : Nat) < 32 by decide) (x := (s3 / 65536)) (by rfl)] at p0
                      exact ⟨14, by omega, hb.setCell (p := ⟨b9, 13, none⟩) (by show N1 ≤ b9; omega) _, row_set y0 (by omega), row_set y6 (by omega), p0, by go_num⟩
                    case measure => (simp [intOf])
                  · have c0 : wr.cell? ⟨b6, 3, none⟩ = some (.int .u32 s3) := by rw [cell_heap y6]; rfl
                    have cz : wr.cell? ⟨b9, 14, none⟩ = some (.int .u8 0) := by rw [cell_heap y9]; exact prow_far hOl (by omega) (by omega)
                    have fz : wr.frozen? ⟨b9, 14, none⟩ = false := frozen_heap y9 14
                    go_wp2
                    go_roundw
                    case rel =>
                      have p0 := row_put5 (k := 14) (v := .int .u8 ((s3 / 256) % 256)) y9
                      rw [prow_u8 hOl (show (14 : Nat) < 32 by decide) (x := (s3 / 256)) (by rfl)] at p0
                      exact ⟨15, by omega, hb.setCell (p := ⟨b9, 14, none⟩) (by show N1 ≤ b9; omega) _, row_set y0 (by omega), row_set y6 (by omega), p0, by go_num⟩
                    case measure => (simp [intOf])
                  · have c0 : wr.cell? ⟨b6, 3, none⟩ = some (.int .u32 s3) := by rw [cell_heap y6]; rfl
                    have cz : wr.cell? ⟨b9, 15, none⟩ = some (.int .u8 0) := by rw [cell_heap y9]; exact prow_far hOl (by omega) (by omega)
                    have fz : wr.frozen? ⟨b9, 15, none⟩ = false := frozen_heap y9 15
                    go_wp2
                    go_roundw
                    case rel =>
                      have p0 := row_put5 (k := 15) (v := .int .u8 ((s3) % 256)) y9
                      rw [prow_u8 hOl (show (15 : Nat) < 32 by decide) (x := (s3)) (by rfl)] at p0
                      exact ⟨16, by omega, hb.setCell (p := ⟨b9, 15, none⟩) (by show N1 ≤ b9; omega) _, row_set y0 (by omega), row_set y6 (by omega), p0, by go_num⟩
                    case measure => (simp [intOf])
                  · have c0 : wr.cell? ⟨b6, 4, none⟩ = some (.int .u32 s4) := by rw [cell_heap y6]; rfl
                    have cz : wr.cell? ⟨b9, 16, none⟩ = some (.int .u8 0) := by rw [cell_heap y9]; exact prow_far hOl (by omega) (by omega)
                    have fz : wr.frozen? ⟨b9, 16, none⟩ = false := frozen_heap y9 16
                    go_wp2
                    go_roundw
                    case rel =>
                      have p0 := row_put5 (k := 16) (v := .int .u8 ((s4 / 16777216) % 256)) y9
                      rw [prow_u8 hOl (show (16 : Nat) < 32 by decide) (x := (s4 / 16777216)) (by rfl)] at p0
                      exact ⟨17, by omega, hb.setCell (p := ⟨b9, 16, none⟩) (by show N1 ≤ b9; omega) _, row_set y0 (by omega), row_set y6 (by omega), p0, by go_num⟩
                    case measure => (simp [intOf])
                  · have c0 : wr.cell? ⟨b6, 4, none⟩ = some (.int .u32 s4) := by rw [cell_heap y6]; rfl
                    have cz : wr.cell? ⟨b9, 17, none⟩ = some (.int .u8 0) := by rw [cell_heap y9]; exact prow_far hOl (by omega) (by omega)
                    have fz : wr.frozen? ⟨b9, 17, none⟩ = false := frozen_heap y9 17
                    go_wp2
                    go_roundw
                    case rel =>
                      have p0 := row_put5 (k := 17) (v := .int .u8 ((s4 / 65536) % 256)) y9
                      rw [prow_u8 hOl (show (17 : Nat) < 32 by decide) (x := (s4 / 65536)) (by rfl)] at p0
                      exact ⟨18, by omega, hb.setCell (p := ⟨b9, 17, none⟩) (by show N1 ≤ b9; omega) _, row_set y0 (by omega), row_set y6 (by omega), p0, by go_num⟩
                    case measure => (simp [intOf])
                  · have c0 : wr.cell? ⟨b6, 4, none⟩ = some (.int .u32 s4) := by rw [cell_heap y6]; rfl
                    have cz : wr.cell? ⟨b9, 18, none⟩ = some (.int .u8 0) := by rw [cell_heap y9]; exact prow_far hOl (by omega) (by omega)
                    have fz : wr.frozen? ⟨b9, 18, none⟩ = false := frozen_heap y9 18
                    go_wp2
                    go_roundw
                    case rel =>
                      have p0 := row_put5 (k := 18) (v := .int .u8 ((s4 / 256) % 256)) y9
                      rw [prow_u8 hOl (show (18 : Nat) < 32 by decide) (x := (s4 / 256)) (by rfl)] at p0
                      exact ⟨19, by omega, hb.setCell (p := ⟨b9, 18, none⟩) (by show N1 ≤ b9; omega) _, row_set y0 (by omega), row_set y6 (by omega), p0, by go_num⟩
                    case measure => (simp [intOf])
                  · have c0 : wr.cell? ⟨b6, 4, none⟩ = some (.int .u32 s4) := by rw [cell_heap y6]; rfl
                    have cz : wr.cell? ⟨b9, 19, none⟩ = some (.int .u8 0) := by rw [cell_heap y9]; exact prow_far hOl (by omega) (by omega)
                    have fz : wr.frozen? ⟨b9, 19, none⟩ = false := frozen_heap y9 19
                    go_wp2
                    go_roundw
                    case rel =>
                      have p0 := row_put5 (k := 19) (v := .int .u8 ((s4) % 256)) y9
                      rw [prow_u8 hOl (show (19 : Nat) < 32 by decide) (x := (s4)) (by rfl)] at p0
                      exact ⟨20, by omega, hb.setCell (p := ⟨b9, 19, none⟩) (by show N1 ≤ b9; omega) _, row_set y0 (by omega), row_set y6 (by omega), p0, by go_num⟩
                    case measure => (simp [intOf])
                  · have c0 : wr.cell? ⟨b6, 5, none⟩ = some (.int .u32 s5) := by rw [cell_heap y6]; rfl
                    have cz : wr.cell? ⟨b9, 20, none⟩ = some (.int .u8 0) := by rw [cell_heap y9]; exact prow_far hOl (by omega) (by omega)
                    have fz : wr.frozen? ⟨b9, 20, none⟩ = false := frozen_heap y9 20
                    go_wp2
                    go_roundw
                    case rel =>
                      have p0 := row_put5 (k := 20) (v := .int .u8 ((s5 / 16777216) % 256)) y9
                      rw [prow_u8 hOl (show (20 : Nat) < 32 by decide) (x := (s5 / 16777216)) (by rfl)] at p0
                      exact ⟨21, by omega, hb.setCell (p := ⟨b9, 20, none⟩) (by show N1 ≤ b9; omega) _, row_set y0 (by omega), row_set y6 (by omega), p0, by go_num⟩
                    case measure => (simp [intOf])
                  · have c0 : wr.cell? ⟨b6, 5, none⟩ = some (.int .u32 s5) := by rw [cell_heap y6]; rfl
                    have cz : wr.cell? ⟨b9, 21, none⟩ = some (.int .u8 0) := by rw [cell_heap y9]; exact prow_far hOl (by omega) (by omega)
                    have fz : wr.frozen? ⟨b9, 21, none⟩ = false := frozen_heap y9 21
                    go_wp2
                    go_roundw
                    case rel =>
                      have p0 := row_put5 (k := 21) (v := .int .u8 ((s5 / 65536) % 256)) y9
                      rw [prow_u8 hOl (show (21 : Nat) < 32 by decide) (x := (s5 / 65536)) (by rfl)] at p0
                      exact ⟨22, by omega, hb.setCell (p := ⟨b9, 21, none⟩) (by show N1 ≤ b9; omega) _, row_set y0 (by omega), row_set y6 (by omega), p0, by go_num⟩
                    case measure => (simp [intOf])
                  · have c0 : wr.cell? ⟨b6, 5, none⟩ = some (.int .u32 s5) := by rw [cell_heap y6]; rfl
                    have cz : wr.cell? ⟨b9, 22, none⟩ = some (.int .u8 0) := by rw [cell_heap y9]; exact prow_far hOl (by omega) (by omega)
                    have fz : wr.frozen? ⟨b9, 22, none⟩ = false := frozen_heap y9 22
                    go_wp2
                    go_roundw
                    case rel =>
                      have p0 := row_put5 (k := 22) (v := .int .u8 ((s5 / 256) % 256)) y9
                      rw [prow_u8 hOl (show (22 : Nat) < 32 by decide) (x := (s5 / 256)) (by rfl)] at p0
                      exact ⟨23, by omega, hb.setCell (p := ⟨b9, 22, none⟩) (by show N1 ≤ b9; omega) _, row_set y0 (by omega), row_set y6 (by omega), p0, by go_num⟩
                    case measure => (simp [intOf])
                  · have c0 : wr.cell? ⟨b6, 5, none⟩ = some (.int .u32 s5) := by rw [cell_heap y6]; rfl
                    have cz : wr.cell? ⟨b9, 23, none⟩ = some (.int .u8 0) := by rw [cell_heap y9]; exact prow_far hOl (by omega) (by omega)
                    have fz : wr.frozen? ⟨b9, 23, none⟩ = false := frozen_heap y9 23
                    go_wp2
                    go_roundw
                    case rel =>
                      have p0 := row_put5 (k := 23) (v := .int .u8 ((s5) % 256)) y9
                      rw [prow_u8 hOl (show (23 : Nat) < 32 by decide) (x := (s5)) (by rfl)] at p0
                      exact ⟨24, by omega, hb.setCell (p := ⟨b9, 23, none⟩) (by show N1 ≤ b9; omega) _, row_set y0 (by omega), row_set y6 (by omega), p0, by go_num⟩
                    case measure => (simp [intOf])
                  · have c0 : wr.cell? ⟨b6, 6, none⟩ = some (.int .u32 s6) := by rw [cell_heap y6]; rfl
                    have cz : wr.cell? ⟨b9, 24, none⟩ = some (.int .u8 0) := by rw [cell_heap y9]; exact prow_far hOl (by omega) (by omega)
                    have fz : wr.frozen? ⟨b9, 24, none⟩ = false := frozen_heap y9 24
                    go_wp2
                    go_roundw
                    case rel =>
                      have p0 := row_put5 (k := 24) (v := .int .u8 ((s6 / 16777216) % 256)) y9
                      rw [prow_u8 hOl (show (24 : Nat) < 32 by decide) (x := (s6 / 16777216)) (by rfl)] at p0
                      exact ⟨25, by omega, hb.setCell (p := ⟨b9, 24, none⟩) (by show N1 ≤ b9; omega) _, row_set y0 (by omega), row_set y6 (by omega), p0, by go_num⟩
                    case measure => (simp [intOf])
                  · have c0 : wr.cell? ⟨b6, 6, none⟩ = some (.int .u32 s6) := by rw [cell_heap y6]; rfl
                    have cz : wr.cell? ⟨b9, 25, none⟩ = some (.int .u8 0) := by rw [cell_heap y9]; exact prow_far hOl (by omega) (by omega)
                    have fz : wr.frozen? ⟨b9, 25, none⟩ = false := frozen_heap y9 25
                    go_wp2
                    go_roundw
                    case rel =>
                      have p0 := row_put5 (k := 25) (v := .int .u8 ((s6 / 65536) % 256)) y9
                      rw [prow_u8 hOl (show (25 : Nat) < 32 by decide) (x := (s6 / 65536)) (by rfl)] at p0
                      exact ⟨26, by omega, hb.setCell (p := ⟨b9, 25, none⟩) (by show N1 ≤ b9; omega) _, row_set y0 (by omega), row_set y6 (by omega), p0, by go_num⟩
                    case measure => (simp [intOf])
                  · have c0 : wr.cell? ⟨b6, 6, none⟩ = some (.int .u32 s6) := by rw [cell_heap y6]; rfl
                    have cz : wr.cell? ⟨b9, 26, none⟩ = some (.int .u8 0) := by rw [cell_heap y9]; exact prow_far hOl (by omega) (by omega)
                    have fz : wr.frozen? ⟨b9, 26, none⟩ = false := frozen_heap y9 26
                    go_wp2
                    go_roundw
                    case rel =>
                      have p0 := row_put5 (k := 26) (v := .int .u8 ((s6 / 256) % 256)) y9
                      rw [prow_u8 hOl (show (26 : Nat) < 32 by decide) (x := (s6 / 256)) (by rfl)] at p0
                      exact ⟨27, by omega, hb.setCell (p := ⟨b9, 26, none⟩) (by show N1 ≤ b9; omega) _, row_set y0 (by omega), row_set y6 (by omega), p0, by go_num⟩
                    case measure => (simp [intOf])
                  · have c0 : wr.cell? ⟨b6, 6, none⟩ = some (.int .u32 s6) := by rw [cell_heap y6]; rfl
                    have cz : wr.cell? ⟨b9, 27, none⟩ = some (.int .u8 0) := by rw [cell_heap y9]; exact prow_far hOl (by omega) (by omega)
                    have fz : wr.frozen? ⟨b9, 27, none⟩ = false := frozen_heap y9 27
                    go_wp2
                    go_roundw
                    case rel =>
                      have p0 := row_put5 (k := 27) (v := .int .u8 ((s6) % 256)) y9
                      rw [prow_u8 hOl (show (27 : Nat) < 32 by decide) (x := (s6)) (by rfl)] at p0
                      exact ⟨28, by omega, hb.setCell (p := ⟨b9, 27, none⟩) (by show N1 ≤ b9; omega) _, row_set y0 (by omega), row_set y6 (by omega), p0, by go_num⟩
                    case measure => (simp [intOf])
                  · have c0 : wr.cell? ⟨b6, 7, none⟩ = some (.int .u32 s7) := by rw [cell_heap y6]; rfl
                    have cz : wr.cell? ⟨b9, 28, none⟩ = some (.int .u8 0) := by rw [cell_heap y9]; exact prow_far hOl (by omega) (by omega)
                    have fz : wr.frozen? ⟨b9, 28, none⟩ = false := frozen_heap y9 28
                    go_wp2
                    go_roundw
                    case rel =>
                      have p0 := row_put5 (k := 28) (v := .int .u8 ((s7 / 16777216) % 256)) y9
                      rw [prow_u8 hOl (show (28 : Nat) < 32 by decide) (x := (s7 / 16777216)) (by rfl)] at p0
                      exact ⟨29, by omega, hb.setCell (p := ⟨b9, 28, none⟩) (by show N1 ≤ b9; omega) _, row_set y0 (by omega), row_set y6 (by omega), p0, by go_num⟩
                    case measure => (simp [intOf])
                  · have c0 : wr.cell? ⟨b6, 7, none⟩ = some (.int .u32 s7) := by rw [cell_heap y6]; rfl
                    have cz : wr.cell? ⟨b9, 29, none⟩ = some (.int .u8 0) := by rw [cell_heap y9]; exact prow_far hOl (by omega) (by omega)
                    have fz : wr.frozen? ⟨b9, 29, none⟩ = false := frozen_heap y9 29
                    go_wp2
                    go_roundw
                    case rel =>
                      have p0 := row_put5 (k := 29) (v := .int .u8 ((s7 / 65536) % 256)) y9
                      rw [prow_u8 hOl (show (29 : Nat) < 32 by decide) (x := (s7 / 65536)) (by rfl)] at p0
                      exact ⟨30, by omega, hb.setCell (p := ⟨b9, 29, none⟩) (by show N1 ≤ b9; omega) _, row_set y0 (by omega), row_set y6 (by omega), p0, by go_num⟩
                    case measure => (simp [intOf])
                  · have c0 : wr.cell? ⟨b6, 7, none⟩ = some (.int .u32 s7) := by rw [cell_heap y6]; rfl
                    have cz : wr.cell? ⟨b9, 30, none⟩ = some (.int .u8 0) := by rw [cell_heap y9]; exact prow_far hOl (by omega) (by omega)
                    have fz : wr.frozen? ⟨b9, 30, none⟩ = false := frozen_heap y9 30
                    go_wp2
                    go_roundw
                    case rel =>
                      have p0 := row_put5 (k := 30) (v := .int .u8 ((s7 / 256) % 256)) y9
                      rw [prow_u8 hOl (show (30 : Nat) < 32 by decide) (x := (s7 / 256)) (by rfl)] at p0
                      exact ⟨31, by omega, hb.setCell (p := ⟨b9, 30, none⟩) (by show N1 ≤ b9; omega) _, row_set y0 (by omega), row_set y6 (by omega), p0, by go_num⟩
                    case measure => (simp [intOf])
                  · have c0 : wr.cell? ⟨b6, 7, none⟩ = some (.int .u32 s7) := by rw [cell_heap y6]; rfl
                    have cz : wr.cell? ⟨b9, 31, none⟩ = some (.int .u8 0) := by rw [cell_heap y9]; exact prow_far hOl (by omega) (by omega)
                    have fz : wr.frozen? ⟨b9, 31, none⟩ = false := frozen_heap y9 31
                    go_wp2
                    go_roundw
                    case rel =>
                      have p0 := row_put5 (k := 31) (v := .int .u8 ((s7) % 256)) y9
                      rw [prow_u8 hOl (show (31 : Nat) < 32 by decide) (x := (s7)) (by rfl)] at p0
                      exact ⟨32, by omega, hb.setCell (p := ⟨b9, 31, none⟩) (by show N1 ≤ b9; omega) _, row_set y0 (by omega), row_set y6 (by omega), p0, by go_num⟩
                    case measure => (simp [intOf])
                · obtain rfl : i = 32 := by omega
                  have d3 : decide (((32 : Nat) : Int) < 32) = false := rfl
                  have y9 : wr.heap[b9]? = some (.cells (hrow (out32 [s0, s1, s2, s3, s4, s5, s6, s7])) 35 (0, 0)) := by rw [← prow_full hOl]; exact y9
                  have hsz : (hrow (out32 [s0, s1, s2, s3, s4, s5, s6, s7])).size = 32 := by rw [hrow_size]; exact hOl
                  have hone := hrow_one (out32 [s0, s1, s2, s3, s4, s5, s6, s7])
                  go_wp2_with (first | (refine wpList_loadRow rfl (.tmp 9) 35 rfl Tryd.underlying35 (by rw [hsz]; kernel_rfl) rfl y9 ?_) | (refine wpList_storeRowTo rfl (.tmp 2) (.tmp 70) 35 rfl (by rw [hsz]; kernel_rfl) rfl rfl y0 (by rw [hsz]; rfl) hone ?_))
                  refine bodyPost_ret (v := .agg (hrow (out32 [s0, s1, s2, s3, s4, s5, s6, s7]))) ?_ rfl ?_
                  · simp [results, Tryd.results87, Act.put, asAddr]
                    exact run_loadVar_row _ _ 35 35 _ (0, 0) _ (setRow_heap _ _ _ _ _ _ y0) Tryd.underlying35 rfl (by rw [hsz]; kernel_rfl)
                  exact ⟨by rw [HT.out, HO.out], below_setRow (hb1.trans (hb.mono (by omega))) (Nat.le_refl _) _⟩
        subst hv7
        have hN1 : N1 ≤ wr.heap.size := by obtain ⟨_, _, _, _, h1, h2⟩ := hp.shape rfl; omega
        have hmx : ((padT T k ++ LB.take j).map bv).length + 1 ≤ maxLen := by rw [hml2]; unfold maxLen; omega
        have hmb : (((padT T k ++ LB.take j).map bv).length + 1) * 1 ≤ 140737488355328 := by rw [hml2]; omega
        rcases (show j = 0 ∨ j = 1 ∨ j = 2 ∨ j = 3 ∨ j = 4 ∨ j = 5 ∨ j = 6 ∨ j = 7 by omega) with rfl | rfl | rfl | rfl | rfl | rfl | rfl | rfl
        · have hi8 : _ = Value.int .i64 7 := hi7
          subst hi8
          go_wp2_with (at_builtin; refine wpList_push_pad rfl (.tmp 30) (.tmp 36) 159 rfl 5 i0 (.int .u8 0) 1 Tryd.underlying159 hi hz0 hz1 hz2 rfl hp (by rfl) _ (by rfl) rfl hmx hmb hN1 ?_)
          intro v2 w4 hp4 hb4
          have hp5 : PadRow w4 N1 v2 ((padT T k ++ LB.take 1).map bv) := PadRow.congr hp4 (by rw [← HB.out]; simp [lenB, bv_u8]; try omega)
          obtain ⟨g2, cap2, rfl, _, _, _⟩ := hp5.shape (n := n + 1 + k + 1) (by rw [List.length_map, List.length_append, hTk, List.length_take]; omega)
          go_wp2
          go_roundw
          case rel => exact ⟨1, g2, cap2, by omega, hp5, hb.trans hb4, rfl, rfl⟩
          case measure => (simp [intOf])
        · have hi8 : _ = Value.int .i64 6 := hi7
          subst hi8
          go_wp2_with (at_builtin; refine wpList_push_pad rfl (.tmp 30) (.tmp 36) 159 rfl 5 i0 (.int .u8 0) 1 Tryd.underlying159 hi hz0 hz1 hz2 rfl hp (by rfl) _ (by rfl) rfl hmx hmb hN1 ?_)
          intro v2 w4 hp4 hb4
          have hp5 : PadRow w4 N1 v2 ((padT T k ++ LB.take 2).map bv) := PadRow.congr hp4 (by rw [← HB.out]; simp [lenB, bv_u8]; try omega)
          obtain ⟨g2, cap2, rfl, _, _, _⟩ := hp5.shape (n := n + 1 + k + 2) (by rw [List.length_map, List.length_append, hTk, List.length_take]; omega)
          go_wp2
          go_roundw
          case rel => exact ⟨2, g2, cap2, by omega, hp5, hb.trans hb4, rfl, rfl⟩
          case measure => (simp [intOf])
        · have hi8 : _ = Value.int .i64 5 := hi7
          subst hi8
          go_wp2_with (at_builtin; refine wpList_push_pad rfl (.tmp 30) (.tmp 36) 159 rfl 5 i0 (.int .u8 0) 1 Tryd.underlying159 hi hz0 hz1 hz2 rfl hp (by rfl) _ (by rfl) rfl hmx hmb hN1 ?_)
          intro v2 w4 hp4 hb4
          have hp5 : PadRow w4 N1 v2 ((padT T k ++ LB.take 3).map bv) := PadRow.congr hp4 (by rw [← HB.out]; simp [lenB, bv_u8]; try omega)
          obtain ⟨g2, cap2, rfl, _, _, _⟩ := hp5.shape (n := n + 1 + k + 3) (by rw [List.length_map, List.length_append, hTk, List.length_take]; omega)
          go_wp2
          go_roundw
          case rel => exact ⟨3, g2, cap2, by omega, hp5, hb.trans hb4, rfl, rfl⟩
          case measure => (simp [intOf])
        · have hi8 : _ = Value.int .i64 4 := hi7
          subst hi8
          go_wp2_with (at_builtin; refine wpList_push_pad rfl (.tmp 30) (.tmp 36) 159 rfl 5 i0 (.int .u8 0) 1 Tryd.underlying159 hi hz0 hz1 hz2 rfl hp (by rfl) _ (by rfl) rfl hmx hmb hN1 ?_)
          intro v2 w4 hp4 hb4
          have hp5 : PadRow w4 N1 v2 ((padT T k ++ LB.take 4).map bv) := PadRow.congr hp4 (by rw [← HB.out]; simp [lenB, bv_u8]; try omega)
          obtain ⟨g2, cap2, rfl, _, _, _⟩ := hp5.shape (n := n + 1 + k + 4) (by rw [List.length_map, List.length_append, hTk, List.length_take]; omega)
          go_wp2
          go_roundw
          case rel => exact ⟨4, g2, cap2, by omega, hp5, hb.trans hb4, rfl, rfl⟩
          case measure => (simp [intOf])
        · have hi8 : _ = Value.int .i64 3 := hi7
          subst hi8
          go_wp2_with (at_builtin; refine wpList_push_pad rfl (.tmp 30) (.tmp 36) 159 rfl 5 i0 (.int .u8 0) 1 Tryd.underlying159 hi hz0 hz1 hz2 rfl hp (by rfl) _ (by rfl) rfl hmx hmb hN1 ?_)
          intro v2 w4 hp4 hb4
          have hp5 : PadRow w4 N1 v2 ((padT T k ++ LB.take 5).map bv) := PadRow.congr hp4 (by rw [← HB.out]; simp [lenB, bv_u8]; try omega)
          obtain ⟨g2, cap2, rfl, _, _, _⟩ := hp5.shape (n := n + 1 + k + 5) (by rw [List.length_map, List.length_append, hTk, List.length_take]; omega)
          go_wp2
          go_roundw
          case rel => exact ⟨5, g2, cap2, by omega, hp5, hb.trans hb4, rfl, rfl⟩
          case measure => (simp [intOf])
        · have hi8 : _ = Value.int .i64 2 := hi7
          subst hi8
          go_wp2_with (at_builtin; refine wpList_push_pad rfl (.tmp 30) (.tmp 36) 159 rfl 5 i0 (.int .u8 0) 1 Tryd.underlying159 hi hz0 hz1 hz2 rfl hp (by rfl) _ (by rfl) rfl hmx hmb hN1 ?_)
          intro v2 w4 hp4 hb4
          have hp5 : PadRow w4 N1 v2 ((padT T k ++ LB.take 6).map bv) := PadRow.congr hp4 (by rw [← HB.out]; simp [lenB, bv_u8]; try omega)
          obtain ⟨g2, cap2, rfl, _, _, _⟩ := hp5.shape (n := n + 1 + k + 6) (by rw [List.length_map, List.length_append, hTk, List.length_take]; omega)
          go_wp2
          go_roundw
          case rel => exact ⟨6, g2, cap2, by omega, hp5, hb.trans hb4, rfl, rfl⟩
          case measure => (simp [intOf])
        · have hi8 : _ = Value.int .i64 1 := hi7
          subst hi8
          go_wp2_with (at_builtin; refine wpList_push_pad rfl (.tmp 30) (.tmp 36) 159 rfl 5 i0 (.int .u8 0) 1 Tryd.underlying159 hi hz0 hz1 hz2 rfl hp (by rfl) _ (by rfl) rfl hmx hmb hN1 ?_)
          intro v2 w4 hp4 hb4
          have hp5 : PadRow w4 N1 v2 ((padT T k ++ LB.take 7).map bv) := PadRow.congr hp4 (by rw [← HB.out]; simp [lenB, bv_u8]; try omega)
          obtain ⟨g2, cap2, rfl, _, _, _⟩ := hp5.shape (n := n + 1 + k + 7) (by rw [List.length_map, List.length_append, hTk, List.length_take]; omega)
          go_wp2
          go_roundw
          case rel => exact ⟨7, g2, cap2, by omega, hp5, hb.trans hb4, rfl, rfl⟩
          case measure => (simp [intOf])
        · have hi8 : _ = Value.int .i64 0 := hi7
          subst hi8
          go_wp2_with (at_builtin; refine wpList_push_pad rfl (.tmp 30) (.tmp 36) 159 rfl 5 i0 (.int .u8 0) 1 Tryd.underlying159 hi hz0 hz1 hz2 rfl hp (by rfl) _ (by rfl) rfl hmx hmb hN1 ?_)
          intro v2 w4 hp4 hb4
          have hp5 : PadRow w4 N1 v2 ((padT T k ++ LB.take 8).map bv) := PadRow.congr hp4 (by rw [← HB.out]; simp [lenB, bv_u8]; try omega)
          obtain ⟨g2, cap2, rfl, _, _, _⟩ := hp5.shape (n := n + 1 + k + 8) (by rw [List.length_map, List.length_append, hTk, List.length_take]; omega)
          go_wp2
          go_roundw
          case rel => exact ⟨8, g2, cap2, by omega, hp5, hb.trans hb4, rfl, rfl⟩
          case measure => (simp [intOf])
    · have d1 : (((n : Int) + 1 + (k : Int)) % 64 == 56) = false := beq_eq_false_iff_ne.2 (by intro h; exact hkp (hpm.1 (by omega)))
      have hN1 : N1 ≤ wr.heap.size := by have := (by assumption : PadRow wr N1 _ _).shape rfl; obtain ⟨_, _, _, _, h1, h2⟩ := this; omega
      have hmx : ((padT T k).map bv).length + 1 ≤ maxLen := by rw [List.length_map, padT_len, hTn]; unfold maxLen; omega
      have hmb : (((padT T k).map bv).length + 1) * 1 ≤ 140737488355328 := by rw [List.length_map, padT_len, hTn]; omega
      go_upto_region 3 with (at_builtin; refine wpList_push_pad rfl (.tmp 19) (.tmp 20) 159 rfl 5 i0 (.int .u8 0) 1 Tryd.underlying159 hi hz0 hz1 hz2 rfl hp (by rfl) _ (by rfl) rfl hmx hmb hN1 ?_)
      go_wp2_with (at_builtin; refine wpList_push_pad rfl (.tmp 19) (.tmp 20) 159 rfl 5 i0 (.int .u8 0) 1 Tryd.underlying159 hi hz0 hz1 hz2 rfl hp (by rfl) _ (by rfl) rfl hmx hmb hN1 ?_)
      intro v2 w4 hp4 hb4
      have hpk : (padT T (k + 1)).map bv = (padT T k).map bv ++ [Value.int .u8 0] := by rw [← padT_succ, List.map_append]; rfl
      rw [← hpk] at hp4
      obtain ⟨g2, cap2, rfl, _, _, _⟩ := hp4.shape (n := n + 1 + (k + 1)) (by rw [List.length_map, padT_len, hTn])
      go_wp2
      go_roundw
      case rel => exact ⟨k + 1, g2, cap2, by omega, hp4, hb.trans hb4, rfl⟩
      case measure => (simp [slenV]) <;> omega
end Go.Proofs.YtpledhipdiephaaDoor
