/- The document's packets and proofs in bytes. -/
import Derived.Test.YtfikbaoiialfeaaDoorGU
import Derived.Test.YtfikbaoiialfeaaDoorGM
import Derived.Test.YtfikbaoiialfeaaDoorGF
import Derived.Test.YtfikbaoiialfeaaDoorGD
import Derived.Test.YtfikbaoiialfeaaDoorGP
import Derived.BigRegion
import Derived.RegionTactic
import Derived.BigQuiet
import Derived.Deep.QuietTactic
import Derived.Deep.MidRow
import Derived.LoopTactic
import Derived.BigFrame
import Derived.WalkKit
import Derived.ProofKit
import Derived.Handy
import Derived.Below
import Derived.Lib.Hide
import Derived.IntWalk
import Derived.Outline
import Derived.WalkLawsBesides
import Derived.WalkSpells
namespace Go.Proofs.YtfikbaoiialfeaaDoor
open Go.RowKit
attribute [local go_sem] strV
set_option linter.unusedVariables false
theorem ba_app (a b : List UInt8) : (⟨a.toArray⟩ : ByteArray) ++ ⟨b.toArray⟩ = ⟨(a ++ b).toArray⟩ := by
  apply ByteArray.ext; simp
theorem pkB_parts (sp : ByteArray) (sc : Int) (dp : ByteArray) (dc sq : Int) (da : ByteArray) (th ta : Int) : (⟨(pkB ((sp, sc), (dp, dc), sq, da, th, ta)).toArray⟩ : ByteArray) = ⟨(putL (sp.size : Int) ++ sp.data.toList).toArray⟩ ++ ⟨(putL sc).toArray⟩ ++ ⟨(putL (dp.size : Int) ++ dp.data.toList).toArray⟩ ++ ⟨(putL dc).toArray⟩ ++ ⟨(putL sq).toArray⟩ ++ ⟨(putL (da.size : Int) ++ da.data.toList).toArray⟩ ++ ⟨(putL th).toArray⟩ ++ ⟨(putL ta).toArray⟩ := by
  simp only [ba_app]
  rw [pkB_eq]
  unfold pkBy endBy
  simp only [List.append_assoc]
theorem ba_list (a b : ByteArray) : (a ++ b).data.toList = a.data.toList ++ b.data.toList := by simp
theorem ba_of {s : ByteArray} {l : List UInt8} (h : s.data.toList = l) : s = ⟨l.toArray⟩ := by apply ByteArray.ext; rw [← h]
set_option maxRecDepth 100000 in
set_option maxHeartbeats 12800000 in
theorem refPutPf_any (ct : Int) (a : Option Addr) (n cap : Nat) (xs : List LeafV) (w : World) (h : LvsAt w a xs) (hn : xs.length = n) (hM : mayPfB ct xs = true) :
    Calls Tryd.prog 58 #[.agg #[.int .i64 ct, .slice a n cap]] w fun e w' => e = .returned (.string ⟨(pfBy ct xs).toArray⟩) ∧ Below w.heap.size w w' := by
  obtain ⟨m1, m2, m3, m4⟩ := mayPfB_parts hM
  have hlb : ∀ x ∈ xs, (leafBy x).length ≤ 1216 := fun x hx => leafBy_len (m4 x hx).1 (m4 x hx).2.1 (m4 x hx).2.2.2.2
  have HN := Lib.hid hn
  have hn2 : n ≤ 2 := by omega
  obtain ⟨FIN, hFIN⟩ : ∃ F, pfBy ct xs = F := ⟨_, rfl⟩
  rw [hFIN]
  have HFIN : Hid (putL ct ++ putL (n : Int) ++ xs.flatMap leafBy = FIN) := Lib.hid (by rw [← hFIN, ← hn]; rfl)
  clear hFIN hM hn
  have P0 := fun W => putNum_any (ct) W
  unfold strV at P0
  have y0 : (⟨(putL (ct)).toArray⟩ : ByteArray).size ≤ 400 := by show (putL (ct)).length ≤ 400; have := putL_len8 (ct); omega
  obtain ⟨A0, hA0⟩ : ∃ x : ByteArray, (⟨(putL (ct)).toArray⟩ : ByteArray) = x := ⟨_, rfl⟩
  simp only [hA0] at P0 y0
  have HA0 := Lib.hid (congrArg (fun b : ByteArray => b.data.toList) hA0)
  simp only at HA0
  clear hA0
  have P1 := fun W => putNum_any ((n : Int)) W
  unfold strV at P1
  have y1 : (⟨(putL ((n : Int))).toArray⟩ : ByteArray).size ≤ 400 := by show (putL ((n : Int))).length ≤ 400; have := putL_len8 ((n : Int)); omega
  obtain ⟨A1, hA1⟩ : ∃ x : ByteArray, (⟨(putL ((n : Int))).toArray⟩ : ByteArray) = x := ⟨_, rfl⟩
  simp only [hA1] at P1 y1
  have HA1 := Lib.hid (congrArg (fun b : ByteArray => b.data.toList) hA1)
  simp only at HA1
  clear hA1
  have hg0 := heap_push w #[.int .i64 ct, .slice a n cap] 46
  have hbA : Below w.heap.size w (w.alloc (.cells #[.int .i64 ct, .slice a n cap] 46)) := Below.alloc (Below.refl _ _) (Nat.le_refl _) _
  have n1 : ¬ 9223372036854775807 < A0.size + A1.size := by omega
  go_enter Tryd.func58, Tryd.ntmps58
  go_upto_region 1 with fail
  refine wp_nameE _ (fun W1 hX => ?_)
  have hg : W1.heap[w.heap.size]? = some (.cells #[.int .i64 ct, .slice a n cap] 46 (0, 0)) := by rw [hX]; exact hg0
  have hb1 : Below w.heap.size w W1 := by rw [hX]; exact hbA
  clear hX hg0 hbA
  have hgl : w.heap.size < W1.heap.size := (Array.getElem?_eq_some_iff.1 hg).1
  have q0 := cell_heap hg 0; have q1 := cell_heap hg 1
  obtain ⟨hcb, hfb⟩ := beyond_cells (W := W1)
  refine wp_region_below (by kernel_rfl) (by kernel_rfl) ?_
  repeat (go_big_quiet_step (first | (go_at_call 94; first | with_reducible exact quiet_below (P0 _) | with_reducible exact quiet_below (P1 _))))
  intro w9 hw9
  have hb9 := beyond_below hw9
  clear hcb hfb hw9
  have hg := cells_of hg hb9 hgl
  have hgl := Nat.lt_of_lt_of_le hgl hb9.size
  have hb1 := hb1.trans (hb9.mono hb1.size)
  clear q0 q1 hb9
  go_upto_region 3 with fail
  go_loopw [3, 4] (fun s i wr => ∃ (k : Nat) (S : ByteArray), k ≤ n ∧ i = .int .i64 k ∧ s = .string S ∧ Hid (S.data.toList = putL ct ++ putL (n : Int) ++ (xs.take k).flatMap leafBy) ∧ S.size ≤ 800 + k * 1216 ∧ Below w9.heap.size w9 wr) (fun _ i _ => n - (intOf i).toNat)
  case atStart => exact ⟨0, A0 ++ A1, Nat.zero_le _, rfl, rfl, Lib.hid (by rw [ba_list, ← HA0.out, ← HA1.out]; simp), by rw [ByteArray.size_append]; omega, Below.refl _ _⟩
  case round =>
    obtain ⟨k, S, hk, rfl, rfl, HS, hS, hbW⟩ := hrel
    have hbel := hb1.trans (hbW.mono hb1.size)
    have hg := cells_of hg hbW hgl
    have hgl := Nat.lt_of_lt_of_le hgl hbW.size
    have q0 := cell_heap hg 0; have q1 := cell_heap hg 1
    by_cases hlt : k < n
    · have d1 : decide ((k : Int) < (n : Int)) = true := decide_eq_true (by omega)
      have d1n : decide (k < n) = true := decide_eq_true hlt
      have hkl : k < xs.length := by rw [HN.out]; exact hlt
      obtain ⟨b1, o1, rfl, hlb1, hg1⟩ := lv_range (h.row.below hbel) hkl
      have ok1 := (h.each _ (List.getElem_mem hkl)).below hbel
      have hm := m4 _ (List.getElem_mem hkl)
      have hstep := flat_takeB (f := leafBy) hkl
      obtain ⟨⟨key, val, idx, pa, pn, pc, path⟩, hp9⟩ : ∃ p, xs[k] = p := ⟨_, rfl⟩
      rw [hp9] at hg1 ok1 hstep hm
      have hg1 : wr.rangeAt b1 (o1 + k * 4) [.string key, .string val, .int .i64 idx, .slice pa pn pc] := hg1
      have hpl : path.length = pn := ok1.len
      have okr : RowAt wr pa (path.flatMap H32.cells) := ok1.row
      obtain ⟨g1, g2, g3, g4, g5⟩ := hm
      simp only at g1 g2 g3 g4 g5
      have hpn : pn ≤ 30 := by omega
      have HST : Hid (putL ct ++ putL (n : Int) ++ (xs.take (k + 1)).flatMap leafBy = S.data.toList ++ (putL (key.size : Int) ++ key.data.toList ++ (putL (val.size : Int) ++ val.data.toList) ++ putL idx ++ putL (pn : Int)) ++ path.flatMap (·.1)) := Lib.hid (by
        rw [hstep, HS.out]; unfold leafBy; simp only [hpl, List.append_assoc])
      have HPL := Lib.hid hpl
      have n0 : (0 : Int) ≤ (k : Int) := by omega
      have n1' : (k : Int) < (n : Int) := by omega
      have n2' : ((k : Nat) : Int).toNat = k := by omega
      clear hp9 ok1 hpl hstep HA0 HA1 P0 P1 n1 y0 y1
      go_upto_region 6 with (first | (refine wpList_load_mid rfl 94 (.tmp 25) rfl b1 _ rfl _ _ hg1 Tryd.underlying94 rfl (by kernel_rfl) ?_) | (refine wpList_storeRowTo rfl (.tmp 5) (.tmp 26) 94 rfl (by kernel_rfl) rfl (by rfl) (heap_push _ _ _) rfl (leaf_one _ _ _ _ _ _) ?_))
      refine wp_nameE _ (fun W5 hX => ?_)
      have hb5 : Below wr.heap.size wr W5 := by rw [hX]; first | exact below_setRow (Below.alloc (Below.refl _ _) (Nat.le_refl _) _) (Nat.le_refl _) _ | exact Below.alloc (Below.refl _ _) (Nat.le_refl _) _
      have hx : W5.heap[wr.heap.size]? = some (.cells #[.string key, .string val, .int .i64 idx, .slice pa pn pc] 94 (0, 0)) := by rw [hX]; first | exact setRow_heap _ _ _ _ _ _ (heap_push _ _ _) | exact heap_push _ _ _
      clear hX hg1
      obtain ⟨gx, hgx⟩ : ∃ g, wr.heap.size = g := ⟨_, rfl⟩
      rw [hgx] at hx
      simp only [hgx]
      have hxl : gx < W5.heap.size := (Array.getElem?_eq_some_iff.1 hx).1
      have okr := okr.below hb5
      have hbel := hbel.trans (hb5.mono hbel.size)
      have hbW := hbW.trans (hb5.mono hbW.size)
      clear hgx hb5 q0 q1
      have x0 := cell_heap hx 0; have x1 := cell_heap hx 1; have x2 := cell_heap hx 2; have x3 := cell_heap hx 3
      have P0 := fun W => refPutText_any key W (by omega)
      unfold strV at P0
      have y0 : (⟨(putL (key.size : Int) ++ key.data.toList).toArray⟩ : ByteArray).size ≤ 400 := by show (putL (key.size : Int) ++ key.data.toList).length ≤ 400; have := putL_len8 (key.size : Int); rw [List.length_append, str_len]; omega
      obtain ⟨A0, hA0⟩ : ∃ x : ByteArray, (⟨(putL (key.size : Int) ++ key.data.toList).toArray⟩ : ByteArray) = x := ⟨_, rfl⟩
      simp only [hA0] at P0 y0
      have HA0 := Lib.hid (congrArg (fun b : ByteArray => b.data.toList) hA0)
      simp only at HA0
      clear hA0
      have P1 := fun W => refPutText_any val W (by omega)
      unfold strV at P1
      have y1 : (⟨(putL (val.size : Int) ++ val.data.toList).toArray⟩ : ByteArray).size ≤ 400 := by show (putL (val.size : Int) ++ val.data.toList).length ≤ 400; have := putL_len8 (val.size : Int); rw [List.length_append, str_len]; omega
      obtain ⟨A1, hA1⟩ : ∃ x : ByteArray, (⟨(putL (val.size : Int) ++ val.data.toList).toArray⟩ : ByteArray) = x := ⟨_, rfl⟩
      simp only [hA1] at P1 y1
      have HA1 := Lib.hid (congrArg (fun b : ByteArray => b.data.toList) hA1)
      simp only at HA1
      clear hA1
      have P2 := fun W => putNum_any (idx) W
      unfold strV at P2
      have y2 : (⟨(putL (idx)).toArray⟩ : ByteArray).size ≤ 400 := by show (putL (idx)).length ≤ 400; have := putL_len8 (idx); omega
      obtain ⟨A2, hA2⟩ : ∃ x : ByteArray, (⟨(putL (idx)).toArray⟩ : ByteArray) = x := ⟨_, rfl⟩
      simp only [hA2] at P2 y2
      have HA2 := Lib.hid (congrArg (fun b : ByteArray => b.data.toList) hA2)
      simp only at HA2
      clear hA2
      have P3 := fun W => putNum_any ((pn : Int)) W
      unfold strV at P3
      have y3 : (⟨(putL ((pn : Int))).toArray⟩ : ByteArray).size ≤ 400 := by show (putL ((pn : Int))).length ≤ 400; have := putL_len8 ((pn : Int)); omega
      obtain ⟨A3, hA3⟩ : ∃ x : ByteArray, (⟨(putL ((pn : Int))).toArray⟩ : ByteArray) = x := ⟨_, rfl⟩
      simp only [hA3] at P3 y3
      have HA3 := Lib.hid (congrArg (fun b : ByteArray => b.data.toList) hA3)
      simp only at HA3
      clear hA3
      have s1 : ¬ 9223372036854775807 < A0.size + A1.size := by omega
      have s2 : ¬ 9223372036854775807 < A0.size + A1.size + A2.size := by omega
      have sm2 : ¬ 9223372036854775807 < (A0 ++ A1).size + A2.size := by first | omega | (simp only [ByteArray.size_append]; omega)
      have s3 : ¬ 9223372036854775807 < A0.size + A1.size + A2.size + A3.size := by omega
      have sm3 : ¬ 9223372036854775807 < (A0 ++ A1 ++ A2).size + A3.size := by first | omega | (simp only [ByteArray.size_append]; omega)
      have s4 : ¬ 9223372036854775807 < S.size + (A0.size + A1.size + A2.size + A3.size) := by omega
      have sm4 : ¬ 9223372036854775807 < S.size + (A0 ++ A1 ++ A2 ++ A3).size := by simp only [ByteArray.size_append]; omega
      obtain ⟨hcb, hfb⟩ := beyond_cells (W := W5)
      refine wp_region_below (by kernel_rfl) (by kernel_rfl) ?_
      repeat (go_big_quiet_step (first | (go_at_call 95; first | with_reducible exact quiet_below (P0 _) | with_reducible exact quiet_below (P1 _)) | (go_at_call 94; first | with_reducible exact quiet_below (P2 _) | with_reducible exact quiet_below (P3 _))))
      intro w7 hw7
      have hb7 := beyond_below hw7
      clear hcb hfb hw7
      have hx := cells_of hx hb7 hxl
      have hxl := Nat.lt_of_lt_of_le hxl hb7.size
      have okr := okr.below hb7
      have hbel := hbel.trans (hb7.mono hbel.size)
      have hbW := hbW.trans (hb7.mono hbW.size)
      clear hb7 x0 x1 x2 x3
      obtain ⟨T, hT⟩ : ∃ T : ByteArray, S ++ (A0 ++ A1 ++ A2 ++ A3) = T := ⟨_, rfl⟩
      have hTs : T.size ≤ 800 + k * 1216 + (A0.size + A1.size + A2.size + A3.size) := by rw [← hT]; simp only [ByteArray.size_append]; omega
      have hTb : A0.size + A1.size + A2.size + A3.size ≤ 256 := by
        have e0 := congrArg List.length HA0.out; have e1 := congrArg List.length HA1.out; have e2 := congrArg List.length HA2.out; have e3 := congrArg List.length HA3.out
        have p0 := putL_len8 (key.size : Int); have p1 := putL_len8 (val.size : Int); have p2 := putL_len8 idx; have p3 := putL_len8 (pn : Int)
        simp only [List.length_append, str_len] at e0 e1 e2 e3
        omega
      have HT : Hid (T.data.toList ++ path.flatMap (·.1) = putL ct ++ putL (n : Int) ++ (xs.take (k + 1)).flatMap leafBy) := Lib.hid (by
        rw [← hT, HST.out]; simp only [ba_list, ← HA0.out, ← HA1.out, ← HA2.out, ← HA3.out])
      simp only [hT]
      clear hT HST HA0 HA1 HA2 HA3 P0 P1 P2 P3 HS s1 s2 s3 s4 sm2 sm3 sm4 y0 y1 y2 y3
      go_upto_region 8 with fail
      go_loopw [3, 6] (fun s i wr => ∃ (j : Nat) (V : ByteArray), j ≤ pn ∧ i = .int .i64 j ∧ s = .string V ∧ Hid (V.data.toList = T.data.toList ++ (path.take j).flatMap (·.1)) ∧ V.size ≤ T.size + j * 32 ∧ Below w7.heap.size w7 wr) (fun _ i _ => pn - (intOf i).toNat)
      case atStart => exact ⟨0, T, Nat.zero_le _, rfl, rfl, Lib.hid (by simp), by omega, Below.refl _ _⟩
      case round =>
        obtain ⟨j, V, hj, rfl, rfl, HV, hV, hbv⟩ := hrel
        have hbel := hbel.trans (hbv.mono hbel.size)
        have hbW := hbW.trans (hbv.mono hbW.size)
        have hx := cells_of hx hbv hxl
        have x3 := cell_heap hx 3
        by_cases hlj : j < pn
        · have d2 : decide ((j : Int) < (pn : Int)) = true := decide_eq_true (by omega)
          have d2n : decide (j < pn) = true := decide_eq_true hlj
          have hjl : j < path.length := by rw [HPL.out]; exact hlj
          obtain ⟨b3, o3, rfl, hb3, hg3⟩ := hs_at (okr.below hbv) hjl
          have hstj := flat_takeB (f := fun q : H32 => q.1) hjl
          obtain ⟨q, hq9⟩ : ∃ q, path[j] = q := ⟨_, rfl⟩
          rw [hq9] at hg3 hstj
          have HSJ := Lib.hid hstj
          have CT := fun W => refText_any W q.1 q.2
          have yq : (⟨q.1.toArray⟩ : ByteArray).size = 32 := by show q.1.length = 32; exact q.2
          obtain ⟨B, hB⟩ : ∃ B : ByteArray, (⟨q.1.toArray⟩ : ByteArray) = B := ⟨_, rfl⟩
          have HB : Hid (B.data.toList = q.1) := Lib.hid (by rw [← hB])
          simp only [hB] at CT yq
          have m0 : (0 : Int) ≤ (j : Int) := by omega
          have m1' : (j : Int) < (pn : Int) := by omega
          have m2' : ((j : Nat) : Int).toNat = j := by omega
          have s5 : ¬ 9223372036854775807 < V.size + B.size := by omega
          clear hq9 hstj hB
          go_wp2_with (first | (refine wpList_load_mid rfl 25 (.tmp 56) rfl b3 _ rfl q.cells _ hg3 Tryd.underlying25 rfl (hash_infoM q) ?_; rw [H32.row]) | (go_at_call 69; refine (CT _).mono ?_; rintro e w8 ⟨rfl, hb8⟩; have hbel := hbel.trans (hb8.mono hbel.size); have hbv := hbv.trans (hb8.mono hbv.size)))
          go_roundw
          case rel => exact ⟨j + 1, V ++ B, by omega, by go_num, rfl, Lib.hid (by rw [ba_list, HV.out, HB.out, HSJ.out, List.append_assoc]), by rw [ByteArray.size_append]; omega, hbv⟩
          case measure => (simp [intOf]) <;> omega
        · obtain rfl : j = pn := by omega
          have d2 : decide ((j : Int) < (j : Int)) = false := decide_eq_false (by omega)
          have d2n : decide (j < j) = false := decide_eq_false (by omega)
          have hVf := HV.out
          rw [List.take_of_length_le (by rw [HPL.out]; omega), HT.out] at hVf
          have HVF := Lib.hid hVf
          clear hVf
          go_wp2
          go_roundw
          case rel => exact ⟨k + 1, V, by omega, by go_num, rfl, HVF, by omega, hbW⟩
          case measure => (simp [intOf]) <;> omega
    · obtain rfl : k = n := by omega
      have d1 : decide ((k : Int) < (k : Int)) = false := decide_eq_false (by omega)
      have d1n : decide (k < k) = false := decide_eq_false (by omega)
      have hSf := HS.out
      rw [List.take_of_length_le (by rw [HN.out]; omega), HFIN.out] at hSf
      obtain rfl := ba_of hSf
      go_wp2
      go_ret
      exact ⟨rfl, hbel⟩
end Go.Proofs.YtfikbaoiialfeaaDoor
