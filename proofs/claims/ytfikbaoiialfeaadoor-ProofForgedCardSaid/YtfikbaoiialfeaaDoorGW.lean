/- Two unlike strings of one sum among a list's (liglaw7.Clash). A region told by a state, as in the text before; the frame ahead of it is known, too: so an operation may read a slot that the region itself writes later. The texts whose sums are taken for a top (liglaw7.top). The texts whose sums are taken along a way (liglaw7.way). The texts whose sums are taken for the root of a list (liglaw7.Inputs). The texts whose sums are taken for a proof (liglaw7.Shown). What a proof that shows something shows; the texts of a run. -/
import Derived.Test.YtfikbaoiialfeaaDoorGQ
import Derived.Test.YtfikbaoiialfeaaDoorRefSum
import Derived.Test.YtfikbaoiialfeaaDoorPt1
import Derived.BigRegion
import Derived.RegionTactic
import Derived.BigQuiet
import Derived.Deep.QuietTactic
import Derived.Deep.MidRow
import Derived.LoopTactic
import Derived.BigFrame
import Derived.OwnWalk
import Derived.WalkKit
import Derived.ProofKit
import Derived.Handy
import Derived.Below
import Derived.Lib.Hide
import Derived.IntWalk
import Derived.Outline
import Derived.WalkLawsBesides
import Derived.WalkSpells
import Derived.Test.YtfikbaoiialfeaaDoorGG
import Derived.Test.YtfikbaoiialfeaaDoorGZ
import Derived.Test.YtfikbaoiialfeaaDoorGF
import Derived.Test.YtfikbaoiialfeaaDoorRf2
namespace Go.Proofs.YtfikbaoiialfeaaDoor
open Go.RowKit
attribute [local go_sem] strV
set_option linter.unusedVariables false
def sumH (s : ByteArray) : H32 := ⟨shaF s.data.toList, shaF_len _⟩
theorem sval_lenC (s : ByteArray) : (sval s).length = 1 := rfl
theorem clash_is {S : List ByteArray} {i k : Nat} (hi : i < S.length) (hk : k < i) (h : clashAt S i k = true) : clashB S = true := by
  unfold clashB
  exact List.any_eq_true.2 ⟨i, List.mem_range.2 hi, List.any_eq_true.2 ⟨k, List.mem_range.2 hk, h⟩⟩
theorem clash_not {S : List ByteArray} (h : ∀ i, i < S.length → ∀ k, k < i → clashAt S i k = false) : clashB S = false := by
  unfold clashB
  rw [List.any_eq_false]
  intro i hi
  rw [Bool.not_eq_true, List.any_eq_false]
  intro k hk
  rw [Bool.not_eq_true]
  exact h i (List.mem_range.1 hi) k (List.mem_range.1 hk)
theorem clash_at {S : List ByteArray} {i k : Nat} (hi : i < S.length) (hk : k < S.length) : clashAt S i k = ((sumH S[k]).1 == (sumH S[i]).1 && !(S[k].toList == S[i].toList)) := by
  unfold clashAt
  rw [List.getElem?_eq_getElem hi, List.getElem?_eq_getElem hk]; rfl
theorem run_equal_2C (W : World) (a b : H32) : (Op.equalIn 10000 25 (.agg (hrow a.1)) (.agg (hrow b.1))).run Tryd.prog W = .ok (a.1 == b.1) W := run_equal_hash W 25 a.1 b.1 a.2 b.2 Tryd.underlying25 Tryd.underlying5 (by kernel_rfl)
theorem str_at {w : World} {a : Option Addr} {S : List ByteArray} (h : RowAt w a (S.flatMap sval)) {k : Nat} (hk : k < S.length) :
    ∃ b off, a = some ⟨b, off, none⟩ ∧ b < w.heap.size ∧ w.cell? ⟨b, off + k, none⟩ = some (.string S[k]) := by
  obtain ⟨b, off, ha, hb, hc⟩ := h.elem sval_lenC hk (by decide)
  refine ⟨b, off, ha, hb, ?_⟩
  have := hc 0 (by decide)
  rw [Nat.mul_one, Nat.add_zero] at this
  rw [this]; rfl
theorem new_hashC (w5 : World) (q : H32) : ∀ ad, some (⟨w5.heap.size, 0, none⟩ : Addr) = some ad → ∀ (j : Nat) (u : Value), q.cells[j]? = some u → (w5.alloc (.cells (hrow q.1) 25)).cell? (ad.add j) = some u := by
  intro ad e j u hu
  obtain rfl := Option.some.inj e
  rw [Addr.add_lit, Nat.zero_add]
  rw [cell_heap (heap_push w5 (hrow q.1) 25) j, ← H32.row]
  simpa using hu
set_option maxRecDepth 100000 in
set_option maxHeartbeats 6400000 in
theorem clash_any (a : Option Addr) (n cap : Nat) (S : List ByteArray) (w : World) (hr : RowAt w a (S.flatMap sval)) (hn : S.length = n) (hn6 : n ≤ 100000) (hcap : n ≤ cap) (hsz : ∀ s ∈ S, s.size ≤ 1000000) :
    Calls Tryd.prog 59 #[.slice a n cap] w fun e w' => e = .returned (.bool (clashB S)) ∧ Below w.heap.size w w' := by
  obtain ⟨r, hr9⟩ : ∃ r, clashB S = r := ⟨_, rfl⟩
  rw [hr9]
  have HR := Lib.hid hr9
  have HN := Lib.hid hn
  have HSZ := Lib.hid hsz
  clear hr9 hn hsz
  obtain ⟨i0, hi, hz0, hz1, hz2⟩ := info_parts Tryd.infoH
  go_enter Tryd.func59, Tryd.ntmps59
  go_upto_region 3 with fail
  go_loopw [3, 4] (fun v i wr => ∃ k : Nat, k ≤ n ∧ i = .int .i64 k ∧ wr.ownsRow w.heap.size 25 32 v k (((S.take k).map sumH).flatMap H32.cells) ∧ Hid (∀ i, i < k → ∀ j, j < i → clashAt S i j = false) ∧ Below w.heap.size w wr) (fun _ i _ => n - (intOf i).toNat)
  case atStart => exact ⟨0, Nat.zero_le _, rfl, ⟨rfl, .inl ⟨rfl, rfl⟩⟩, Lib.hid (fun i h => by omega), Below.refl _ _⟩
  case round =>
    rename_i sv _ _
    obtain ⟨k, hk, rfl, hown, HA, hbel⟩ := hrel
    by_cases hlt : k < n
    rotate_left
    · have d9 : decide ((k : Int) < (n : Int)) = false := decide_eq_false (by omega)
      have d9n : decide (k < n) = false := decide_eq_false hlt
      obtain rfl : r = false := by rw [← HR.out]; exact clash_not (fun i hi => HA.out i (by rw [HN.out] at hi; omega))
      go_wp2
      go_ret
      exact ⟨rfl, hbel⟩
    have d1 : decide ((k : Int) < (n : Int)) = true := decide_eq_true (by omega)
    have d1n : decide (k < n) = true := decide_eq_true hlt
    have hkl : k < S.length := by rw [HN.out]; exact hlt
    obtain ⟨b1, o1, rfl, hb1, hg1⟩ := str_at (hr.below hbel) hkl
    have htk : (((S.take (k + 1)).map sumH).flatMap H32.cells) = ((S.take k).map sumH).flatMap H32.cells ++ (sumH S[k]).cells := by
      rw [List.take_succ_eq_append_getElem hkl, List.map_append, List.flatMap_append]
      simp
    have CSu := fun W => refSum_any S[k] W (HSZ.out _ (List.getElem_mem hkl))
    have hsk : shaF (S[k]).data.toList = (sumH S[k]).1 := rfl
    simp only [hsk] at CSu
    clear hsk
    obtain ⟨s, hs9⟩ : ∃ s, S[k] = s := ⟨_, rfl⟩
    simp only [hs9] at hg1 htk CSu
    obtain ⟨q, hq⟩ : ∃ q, sumH s = q := ⟨_, rfl⟩
    simp only [hq] at htk CSu
    have HS9 := Lib.hid hs9
    have HQ := Lib.hid hq
    have HTK := Lib.hid htk
    clear htk hs9 hq
    have n0 : (0 : Int) ≤ (k : Int) := by omega
    have n1 : (k : Int) < (n : Int) := by omega
    have n2 : ((k : Nat) : Int).toNat = k := by omega
    obtain ⟨a2, c2, rfl, _⟩ := own_sliceH hown
    have hqs : (hrow q.1).size = 32 := by rw [hrow_size]; exact q.2
    have hfold := fold_row #[.int .u8 0, .int .u8 0, .int .u8 0, .int .u8 0, .int .u8 0, .int .u8 0, .int .u8 0, .int .u8 0, .int .u8 0, .int .u8 0, .int .u8 0, .int .u8 0, .int .u8 0, .int .u8 0, .int .u8 0, .int .u8 0, .int .u8 0, .int .u8 0, .int .u8 0, .int .u8 0, .int .u8 0, .int .u8 0, .int .u8 0, .int .u8 0, .int .u8 0, .int .u8 0, .int .u8 0, .int .u8 0, .int .u8 0, .int .u8 0, .int .u8 0, .int .u8 0] (hrow q.1) 32 hqs rfl
    go_upto_region 6 with (first | (go_at_call 66; refine (CSu _).mono ?_; rintro e w2 ⟨rfl, hb⟩; have hbel := hbel.trans (hb.mono hbel.size); have hown := own_keptH hown hb; clear hb) | (at_builtin; refine wpList_append_own _ rfl (.tmp 12) (.tmp 18) 22 rfl w.heap.size 25 i0 (.agg #[.int .u8 0, .int .u8 0, .int .u8 0, .int .u8 0, .int .u8 0, .int .u8 0, .int .u8 0, .int .u8 0, .int .u8 0, .int .u8 0, .int .u8 0, .int .u8 0, .int .u8 0, .int .u8 0, .int .u8 0, .int .u8 0, .int .u8 0, .int .u8 0, .int .u8 0, .int .u8 0, .int .u8 0, .int .u8 0, .int .u8 0, .int .u8 0, .int .u8 0, .int .u8 0, .int .u8 0, .int .u8 0, .int .u8 0, .int .u8 0, .int .u8 0, .int .u8 0]) 32 32 Tryd.underlying22 hi hz0 hz1 hz2 rfl (by decide) _ _ _ rfl (hown.alloc _) ⟨w2.heap.size, 0, none⟩ 1 1 q.cells rfl (by rw [H32.cells_len]) (new_hashC w2 q _ rfl) hs_one1 (by unfold maxLen; omega) (by omega) (hbel.alloc hbel.size _).size ?_; intro v9 w9 hown9 hgr9 _))
    have hb9 : Below w.heap.size w w9 := (hbel.alloc hbel.size _).trans (below_grown (hown.alloc _) hgr9 (hbel.alloc hbel.size _).size)
    have hown9 : w9.ownsRow w.heap.size 25 32 v9 (k + 1) (((S.take (k + 1)).map sumH).flatMap H32.cells) := by rw [HTK.out]; exact hown9
    clear hgr9 CSu hfold hown hbel
    obtain ⟨ah, ch, rfl, hrh, hc1, hc2⟩ := own_sliceH hown9
    have hlm : ((S.take (k + 1)).map sumH).length = k + 1 := by rw [List.length_map, List.length_take]; omega
    obtain ⟨b2, o2, rfl, hb2, _⟩ := hs_at hrh (k := 0) (by omega)
    go_upto_region 7 with fail
    go_loopw [5] (fun kk wr2 => ∃ j : Nat, j ≤ k ∧ kk = .int .i64 j ∧ Hid (∀ t, t < j → clashAt S k t = false) ∧ Below w9.heap.size w9 wr2) (fun kk _ => k - (intOf kk).toNat)
    case atStart => exact ⟨0, Nat.zero_le _, rfl, Lib.hid (fun i h => by omega), Below.refl _ _⟩
    case round =>
      obtain ⟨j, hj, rfl, HB, hbW⟩ := hrel
      by_cases hlj : j < k
      rotate_left
      · obtain rfl : j = k := by omega
        have d9 : decide ((j : Int) < (j : Int)) = false := decide_eq_false (by omega)
        have d9n : decide (j < j) = false := decide_eq_false (by omega)
        go_wp2
        go_roundw
        case rel => exact ⟨j + 1, by omega, by go_num, own_keptH hown9 hbW, Lib.hid (fun i hi t ht => by
            rcases Nat.lt_or_ge i j with h9 | h9
            · exact HA.out i h9 t ht
            · obtain rfl : i = j := by omega
              exact HB.out t ht), hb9.trans (hbW.mono hb9.size)⟩
        case measure => (simp [intOf]) <;> omega
      have d2 : decide ((j : Int) < (k : Int)) = true := decide_eq_true (by omega)
      have d2n : decide (j < k) = true := decide_eq_true hlj
      have hjl : j < S.length := by omega
      have hcl := clash_at hkl hjl
      have hrW := hr.below (hb9.trans (hbW.mono hb9.size))
      obtain ⟨b3, o3, e3, hb1, hgj⟩ := str_at hrW hjl
      simp only [Option.some.injEq, Addr.mk.injEq, and_true] at e3
      obtain ⟨rfl, rfl⟩ := e3
      obtain ⟨b3, o3, e3, _, hgk⟩ := str_at hrW hkl
      simp only [Option.some.injEq, Addr.mk.injEq, and_true] at e3
      obtain ⟨rfl, rfl⟩ := e3
      have hrhW := hrh.below hbW
      obtain ⟨b4, o4, e4, hb2, hrgqj⟩ := hs_at hrhW (k := j) (by omega)
      simp only [Option.some.injEq, Addr.mk.injEq, and_true] at e4
      obtain ⟨rfl, rfl⟩ := e4
      obtain ⟨b4, o4, e4, _, hrgqk⟩ := hs_at hrhW (k := k) (by omega)
      simp only [Option.some.injEq, Addr.mk.injEq, and_true] at e4
      obtain ⟨rfl, rfl⟩ := e4
      rw [show ((S.take (k + 1)).map sumH)[j]'(by omega) = sumH S[j] by rw [List.getElem_map, List.getElem_take]] at hrgqj
      rw [show ((S.take (k + 1)).map sumH)[k]'(by omega) = sumH S[k] by rw [List.getElem_map, List.getElem_take]] at hrgqk
      obtain ⟨sj, hsj⟩ : ∃ s, S[j] = s := ⟨_, rfl⟩
      rw [HS9.out] at hgk hrgqk hcl
      rw [hsj] at hgj hrgqj hcl
      obtain ⟨qj, hqj⟩ : ∃ q, sumH sj = q := ⟨_, rfl⟩
      obtain ⟨qk, hqk⟩ : ∃ q, sumH s = q := ⟨_, rfl⟩
      rw [hqj] at hrgqj hcl
      rw [hqk] at hrgqk hcl
      obtain ⟨eq, heq⟩ : ∃ e, (qj.1 == qk.1) = e := ⟨_, rfl⟩
      obtain ⟨ne, hne⟩ : ∃ e, (!(sj.toList == s.toList)) = e := ⟨_, rfl⟩
      rw [heq, hne] at hcl
      have HEQ := Lib.hid heq
      have HCL := Lib.hid hcl
      have m0 : (0 : Int) ≤ (j : Int) := by omega
      have m1 : (j : Int) < (n : Int) := by omega
      have m1' : (j : Int) < (k : Int) + 1 := by omega
      have m2 : ((j : Nat) : Int).toNat = j := by omega
      have m3 : (k : Int) < (k : Int) + 1 := by omega
      clear hcl heq hsj hqj hqk
      cases eq
      · go_upto_region 9 with fail
        refine wp_region_facts [Fact.eq (.slice (some ⟨b2, o2, none⟩) (k + 1) ch), Fact.eq (.int .i64 (j : Int)), Fact.eq (.pointer (some ⟨b2, o2 + j * 32, none⟩)), Fact.eq (.agg (hrow qj.1)), Fact.eq (.slice (some ⟨b2, o2, none⟩) (k + 1) ch), Fact.eq (.int .i64 (k : Int)), Fact.eq (.pointer (some ⟨b2, o2 + k * 32, none⟩)), Fact.eq (.agg (hrow qk.1)), Fact.eq (.bool false), Fact.eq (.bool false), Fact.eq (.tuple #[]), Fact.eq (.tuple #[]), Fact.eq (.tuple #[]), Fact.eq (.tuple #[]), Fact.eq (.tuple #[]), Fact.eq (.tuple #[]), Fact.eq (.tuple #[]), Fact.eq (.tuple #[]), Fact.eq (.tuple #[]), Fact.eq (.bool false)] (by kernel_rfl) (by kernel_rfl) (by kernel_rfl) (by kernel_rfl) (fun x => by simp only [fillFrom, Act.put, List.setIfInBounds_toArray, List.set_cons_succ, List.set_cons_zero]; rfl) ?_ ?_
        · refine ⟨?_, ?_, ?_, ?_, ?_, ?_, ?_, ?_, ?_, ?_, ?_, ?_, ?_, ?_, ?_, ?_, ?_, ?_, ?_, ?_, trivial⟩
          · intro x w' hbw hd
            clear hd
            go_wp2_with fail
            exact frPost_mk rfl (by repeat (first | assumption | exact Below.refl _ _ | refine bch ?_ (by assumption) | refine Below.alloc ?_ (by simp) _)) rfl
          · intro x w' hbw hd
            clear hd
            go_wp2_with fail
            exact frPost_mk rfl (by repeat (first | assumption | exact Below.refl _ _ | refine bch ?_ (by assumption) | refine Below.alloc ?_ (by simp) _)) rfl
          · intro x w' hbw hd
            have d0 : x 0 = .slice (some ⟨b2, o2, none⟩) (k + 1) ch := hd 0 rfl
            have d1 : x 1 = .int .i64 (j : Int) := hd 1 rfl
            clear hd
            go_wp2_with fail
            exact frPost_mk rfl (by repeat (first | assumption | exact Below.refl _ _ | refine bch ?_ (by assumption) | refine Below.alloc ?_ (by simp) _)) (by first | rfl | (show Value.pointer _ = Value.pointer _; simp))
          · intro x w' hbw hd
            have d2 : x 2 = .pointer (some ⟨b2, o2 + j * 32, none⟩) := hd 2 rfl
            clear hd
            have hrg : w'.rangeAt b2 (o2 + j * 32) qj.cells := fun t v hv => by rw [hbw.cell (p := ⟨b2, o2 + j * 32 + t, none⟩) hb2]; exact hrgqj t v hv
            go_wp2_with (first | (refine wpList_load_mid rfl 25 (.tmp 27) rfl b2 (o2 + j * 32) (by first | exact d2 | exact d6) qj.cells _ hrg Tryd.underlying25 rfl (hash_info qj) ?_; rw [H32.row]))
            exact frPost_mk rfl (by repeat (first | assumption | exact Below.refl _ _ | refine bch ?_ (by assumption) | refine Below.alloc ?_ (by simp) _)) rfl
          · intro x w' hbw hd
            clear hd
            go_wp2_with fail
            exact frPost_mk rfl (by repeat (first | assumption | exact Below.refl _ _ | refine bch ?_ (by assumption) | refine Below.alloc ?_ (by simp) _)) rfl
          · intro x w' hbw hd
            clear hd
            go_wp2_with fail
            exact frPost_mk rfl (by repeat (first | assumption | exact Below.refl _ _ | refine bch ?_ (by assumption) | refine Below.alloc ?_ (by simp) _)) rfl
          · intro x w' hbw hd
            have d4 : x 4 = .slice (some ⟨b2, o2, none⟩) (k + 1) ch := hd 4 rfl
            have d5 : x 5 = .int .i64 (k : Int) := hd 5 rfl
            clear hd
            go_wp2_with fail
            exact frPost_mk rfl (by repeat (first | assumption | exact Below.refl _ _ | refine bch ?_ (by assumption) | refine Below.alloc ?_ (by simp) _)) (by first | rfl | (show Value.pointer _ = Value.pointer _; simp))
          · intro x w' hbw hd
            have d6 : x 6 = .pointer (some ⟨b2, o2 + k * 32, none⟩) := hd 6 rfl
            clear hd
            have hrg : w'.rangeAt b2 (o2 + k * 32) qk.cells := fun t v hv => by rw [hbw.cell (p := ⟨b2, o2 + k * 32 + t, none⟩) hb2]; exact hrgqk t v hv
            go_wp2_with (first | (refine wpList_load_mid rfl 25 (.tmp 31) rfl b2 (o2 + k * 32) (by first | exact d2 | exact d6) qk.cells _ hrg Tryd.underlying25 rfl (hash_info qk) ?_; rw [H32.row]))
            exact frPost_mk rfl (by repeat (first | assumption | exact Below.refl _ _ | refine bch ?_ (by assumption) | refine Below.alloc ?_ (by simp) _)) rfl
          · intro x w' hbw hd
            have d3 : x 3 = .agg (hrow qj.1) := hd 3 rfl
            have d7 : x 7 = .agg (hrow qk.1) := hd 7 rfl
            clear hd
            have hE := run_equal_2C w' qj qk
            rw [HEQ.out] at hE
            go_wp2_with (first | fail)
            exact frPost_mk rfl (by repeat (first | assumption | exact Below.refl _ _ | refine bch ?_ (by assumption) | refine Below.alloc ?_ (by simp) _)) rfl
          · intro x w' hbw hd
            have d8 : x 8 = .bool false := hd 8 rfl
            clear hd
            go_wp2_with fail
            exact frPost_mk rfl (by repeat (first | assumption | exact Below.refl _ _ | refine bch ?_ (by assumption) | refine Below.alloc ?_ (by simp) _)) rfl
          · intro x w' hbw hd
            have d9 : x 9 = .bool false := hd 9 rfl
            clear hd
            go_wp2_with fail
            first | exact frPost_mk rfl (by repeat (first | assumption | exact Below.refl _ _ | refine bch ?_ (by assumption) | refine Below.alloc ?_ (by simp) _)) rfl | exact ⟨rfl, rfl, Below.refl _ _, rfl⟩
          · intro x w' hbw hd
            have d9 : x 9 = .bool false := hd 9 rfl
            clear hd
            go_wp2_with fail
            first | exact frPost_mk rfl (by repeat (first | assumption | exact Below.refl _ _ | refine bch ?_ (by assumption) | refine Below.alloc ?_ (by simp) _)) rfl | exact ⟨rfl, rfl, Below.refl _ _, rfl⟩
          · intro x w' hbw hd
            have d9 : x 9 = .bool false := hd 9 rfl
            have d10 : x 10 = .tuple #[] := hd 10 rfl
            have d11 : x 11 = .tuple #[] := hd 11 rfl
            clear hd
            go_wp2_with fail
            first | exact frPost_mk rfl (by repeat (first | assumption | exact Below.refl _ _ | refine bch ?_ (by assumption) | refine Below.alloc ?_ (by simp) _)) rfl | exact ⟨rfl, rfl, Below.refl _ _, rfl⟩
          · intro x w' hbw hd
            have d9 : x 9 = .bool false := hd 9 rfl
            have d12 : x 12 = .tuple #[] := hd 12 rfl
            clear hd
            go_wp2_with fail
            first | exact frPost_mk rfl (by repeat (first | assumption | exact Below.refl _ _ | refine bch ?_ (by assumption) | refine Below.alloc ?_ (by simp) _)) rfl | exact ⟨rfl, rfl, Below.refl _ _, rfl⟩
          · intro x w' hbw hd
            have d9 : x 9 = .bool false := hd 9 rfl
            clear hd
            go_wp2_with fail
            first | exact frPost_mk rfl (by repeat (first | assumption | exact Below.refl _ _ | refine bch ?_ (by assumption) | refine Below.alloc ?_ (by simp) _)) rfl | exact ⟨rfl, rfl, Below.refl _ _, rfl⟩
          · intro x w' hbw hd
            have d9 : x 9 = .bool false := hd 9 rfl
            clear hd
            go_wp2_with fail
            first | exact frPost_mk rfl (by repeat (first | assumption | exact Below.refl _ _ | refine bch ?_ (by assumption) | refine Below.alloc ?_ (by simp) _)) rfl | exact ⟨rfl, rfl, Below.refl _ _, rfl⟩
          · intro x w' hbw hd
            have d9 : x 9 = .bool false := hd 9 rfl
            have d14 : x 14 = .tuple #[] := hd 14 rfl
            have d15 : x 15 = .tuple #[] := hd 15 rfl
            clear hd
            go_wp2_with fail
            first | exact frPost_mk rfl (by repeat (first | assumption | exact Below.refl _ _ | refine bch ?_ (by assumption) | refine Below.alloc ?_ (by simp) _)) rfl | exact ⟨rfl, rfl, Below.refl _ _, rfl⟩
          · intro x w' hbw hd
            have d9 : x 9 = .bool false := hd 9 rfl
            have d16 : x 16 = .tuple #[] := hd 16 rfl
            clear hd
            go_wp2_with fail
            first | exact frPost_mk rfl (by repeat (first | assumption | exact Below.refl _ _ | refine bch ?_ (by assumption) | refine Below.alloc ?_ (by simp) _)) rfl | exact ⟨rfl, rfl, Below.refl _ _, rfl⟩
          · intro x w' hbw hd
            have d9 : x 9 = .bool false := hd 9 rfl
            have d13 : x 13 = .tuple #[] := hd 13 rfl
            have d17 : x 17 = .tuple #[] := hd 17 rfl
            clear hd
            go_wp2_with fail
            first | exact frPost_mk rfl (by repeat (first | assumption | exact Below.refl _ _ | refine bch ?_ (by assumption) | refine Below.alloc ?_ (by simp) _)) rfl | exact ⟨rfl, rfl, Below.refl _ _, rfl⟩
          · intro x w' hbw hd
            have d9 : x 9 = .bool false := hd 9 rfl
            have d18 : x 18 = .tuple #[] := hd 18 rfl
            clear hd
            go_wp2_with fail
            exact frPost_mk rfl (by repeat (first | assumption | exact Below.refl _ _ | refine bch ?_ (by assumption) | refine Below.alloc ?_ (by simp) _)) rfl
        intro x w8 hbw hall
        have hx19 : x 19 = .bool false := hall 19 (by decide)
        clear hall
        simp only [hx19]
        go_wp2
        go_roundw
        case rel => exact ⟨j + 1, by omega, by go_num, Lib.hid (fun t ht => by
            rcases Nat.lt_or_ge t j with h9 | h9
            · exact HB.out t h9
            · obtain rfl : t = j := by omega
              rw [HCL.out]; rfl), hbW.trans (hbw.mono hbW.size)⟩
        case measure => (simp [intOf]) <;> omega
      · go_upto_region 9 with fail
        refine wp_region_facts [Fact.eq (.slice (some ⟨b2, o2, none⟩) (k + 1) ch), Fact.eq (.int .i64 (j : Int)), Fact.eq (.pointer (some ⟨b2, o2 + j * 32, none⟩)), Fact.eq (.agg (hrow qj.1)), Fact.eq (.slice (some ⟨b2, o2, none⟩) (k + 1) ch), Fact.eq (.int .i64 (k : Int)), Fact.eq (.pointer (some ⟨b2, o2 + k * 32, none⟩)), Fact.eq (.agg (hrow qk.1)), Fact.eq (.bool true), Fact.eq (.bool true), Fact.eq (.slice (some ⟨b1, o1, none⟩) n cap), Fact.eq (.int .i64 (j : Int)), Fact.eq (.pointer (some ⟨b1, o1 + j, none⟩)), Fact.eq (.string sj), Fact.eq (.slice (some ⟨b1, o1, none⟩) n cap), Fact.eq (.int .i64 (k : Int)), Fact.eq (.pointer (some ⟨b1, o1 + k, none⟩)), Fact.eq (.string s), Fact.eq (.bool ne), Fact.eq (.bool ne)] (by kernel_rfl) (by kernel_rfl) (by kernel_rfl) (by kernel_rfl) (fun x => by simp only [fillFrom, Act.put, List.setIfInBounds_toArray, List.set_cons_succ, List.set_cons_zero]; rfl) ?_ ?_
        · refine ⟨?_, ?_, ?_, ?_, ?_, ?_, ?_, ?_, ?_, ?_, ?_, ?_, ?_, ?_, ?_, ?_, ?_, ?_, ?_, ?_, trivial⟩
          · intro x w' hbw hd
            clear hd
            go_wp2_with fail
            exact frPost_mk rfl (by repeat (first | assumption | exact Below.refl _ _ | refine bch ?_ (by assumption) | refine Below.alloc ?_ (by simp) _)) rfl
          · intro x w' hbw hd
            clear hd
            go_wp2_with fail
            exact frPost_mk rfl (by repeat (first | assumption | exact Below.refl _ _ | refine bch ?_ (by assumption) | refine Below.alloc ?_ (by simp) _)) rfl
          · intro x w' hbw hd
            have d0 : x 0 = .slice (some ⟨b2, o2, none⟩) (k + 1) ch := hd 0 rfl
            have d1 : x 1 = .int .i64 (j : Int) := hd 1 rfl
            clear hd
            go_wp2_with fail
            exact frPost_mk rfl (by repeat (first | assumption | exact Below.refl _ _ | refine bch ?_ (by assumption) | refine Below.alloc ?_ (by simp) _)) (by first | rfl | (show Value.pointer _ = Value.pointer _; simp))
          · intro x w' hbw hd
            have d2 : x 2 = .pointer (some ⟨b2, o2 + j * 32, none⟩) := hd 2 rfl
            clear hd
            have hrg : w'.rangeAt b2 (o2 + j * 32) qj.cells := fun t v hv => by rw [hbw.cell (p := ⟨b2, o2 + j * 32 + t, none⟩) hb2]; exact hrgqj t v hv
            go_wp2_with (first | (refine wpList_load_mid rfl 25 (.tmp 27) rfl b2 (o2 + j * 32) (by first | exact d2 | exact d6) qj.cells _ hrg Tryd.underlying25 rfl (hash_info qj) ?_; rw [H32.row]))
            exact frPost_mk rfl (by repeat (first | assumption | exact Below.refl _ _ | refine bch ?_ (by assumption) | refine Below.alloc ?_ (by simp) _)) rfl
          · intro x w' hbw hd
            clear hd
            go_wp2_with fail
            exact frPost_mk rfl (by repeat (first | assumption | exact Below.refl _ _ | refine bch ?_ (by assumption) | refine Below.alloc ?_ (by simp) _)) rfl
          · intro x w' hbw hd
            clear hd
            go_wp2_with fail
            exact frPost_mk rfl (by repeat (first | assumption | exact Below.refl _ _ | refine bch ?_ (by assumption) | refine Below.alloc ?_ (by simp) _)) rfl
          · intro x w' hbw hd
            have d4 : x 4 = .slice (some ⟨b2, o2, none⟩) (k + 1) ch := hd 4 rfl
            have d5 : x 5 = .int .i64 (k : Int) := hd 5 rfl
            clear hd
            go_wp2_with fail
            exact frPost_mk rfl (by repeat (first | assumption | exact Below.refl _ _ | refine bch ?_ (by assumption) | refine Below.alloc ?_ (by simp) _)) (by first | rfl | (show Value.pointer _ = Value.pointer _; simp))
          · intro x w' hbw hd
            have d6 : x 6 = .pointer (some ⟨b2, o2 + k * 32, none⟩) := hd 6 rfl
            clear hd
            have hrg : w'.rangeAt b2 (o2 + k * 32) qk.cells := fun t v hv => by rw [hbw.cell (p := ⟨b2, o2 + k * 32 + t, none⟩) hb2]; exact hrgqk t v hv
            go_wp2_with (first | (refine wpList_load_mid rfl 25 (.tmp 31) rfl b2 (o2 + k * 32) (by first | exact d2 | exact d6) qk.cells _ hrg Tryd.underlying25 rfl (hash_info qk) ?_; rw [H32.row]))
            exact frPost_mk rfl (by repeat (first | assumption | exact Below.refl _ _ | refine bch ?_ (by assumption) | refine Below.alloc ?_ (by simp) _)) rfl
          · intro x w' hbw hd
            have d3 : x 3 = .agg (hrow qj.1) := hd 3 rfl
            have d7 : x 7 = .agg (hrow qk.1) := hd 7 rfl
            clear hd
            have hE := run_equal_2C w' qj qk
            rw [HEQ.out] at hE
            go_wp2_with (first | fail)
            exact frPost_mk rfl (by repeat (first | assumption | exact Below.refl _ _ | refine bch ?_ (by assumption) | refine Below.alloc ?_ (by simp) _)) rfl
          · intro x w' hbw hd
            have d8 : x 8 = .bool true := hd 8 rfl
            clear hd
            go_wp2_with fail
            exact frPost_mk rfl (by repeat (first | assumption | exact Below.refl _ _ | refine bch ?_ (by assumption) | refine Below.alloc ?_ (by simp) _)) rfl
          · intro x w' hbw hd
            have d9 : x 9 = .bool true := hd 9 rfl
            clear hd
            go_wp2_with fail
            exact frPost_mk rfl (by repeat (first | assumption | exact Below.refl _ _ | refine bch ?_ (by assumption) | refine Below.alloc ?_ (by simp) _)) rfl
          · intro x w' hbw hd
            have d9 : x 9 = .bool true := hd 9 rfl
            clear hd
            go_wp2_with fail
            exact frPost_mk rfl (by repeat (first | assumption | exact Below.refl _ _ | refine bch ?_ (by assumption) | refine Below.alloc ?_ (by simp) _)) rfl
          · intro x w' hbw hd
            have d9 : x 9 = .bool true := hd 9 rfl
            have d10 : x 10 = .slice (some ⟨b1, o1, none⟩) n cap := hd 10 rfl
            have d11 : x 11 = .int .i64 (j : Int) := hd 11 rfl
            clear hd
            go_wp2_with fail
            exact frPost_mk rfl (by repeat (first | assumption | exact Below.refl _ _ | refine bch ?_ (by assumption) | refine Below.alloc ?_ (by simp) _)) (by first | rfl | (show Value.pointer _ = Value.pointer _; simp))
          · intro x w' hbw hd
            have d9 : x 9 = .bool true := hd 9 rfl
            have d12 : x 12 = .pointer (some ⟨b1, o1 + j, none⟩) := hd 12 rfl
            clear hd
            have cq : w'.cell? ⟨b1, o1 + j, none⟩ = some (.string sj) := by rw [hbw.cell (p := ⟨b1, o1 + j, none⟩) hb1]; exact hgj
            go_wp2_with (first | fail)
            exact frPost_mk rfl (by repeat (first | assumption | exact Below.refl _ _ | refine bch ?_ (by assumption) | refine Below.alloc ?_ (by simp) _)) rfl
          · intro x w' hbw hd
            have d9 : x 9 = .bool true := hd 9 rfl
            clear hd
            go_wp2_with fail
            exact frPost_mk rfl (by repeat (first | assumption | exact Below.refl _ _ | refine bch ?_ (by assumption) | refine Below.alloc ?_ (by simp) _)) rfl
          · intro x w' hbw hd
            have d9 : x 9 = .bool true := hd 9 rfl
            clear hd
            go_wp2_with fail
            exact frPost_mk rfl (by repeat (first | assumption | exact Below.refl _ _ | refine bch ?_ (by assumption) | refine Below.alloc ?_ (by simp) _)) rfl
          · intro x w' hbw hd
            have d9 : x 9 = .bool true := hd 9 rfl
            have d14 : x 14 = .slice (some ⟨b1, o1, none⟩) n cap := hd 14 rfl
            have d15 : x 15 = .int .i64 (k : Int) := hd 15 rfl
            clear hd
            go_wp2_with fail
            exact frPost_mk rfl (by repeat (first | assumption | exact Below.refl _ _ | refine bch ?_ (by assumption) | refine Below.alloc ?_ (by simp) _)) (by first | rfl | (show Value.pointer _ = Value.pointer _; simp))
          · intro x w' hbw hd
            have d9 : x 9 = .bool true := hd 9 rfl
            have d16 : x 16 = .pointer (some ⟨b1, o1 + k, none⟩) := hd 16 rfl
            clear hd
            have cq : w'.cell? ⟨b1, o1 + k, none⟩ = some (.string s) := by rw [hbw.cell (p := ⟨b1, o1 + k, none⟩) hb1]; exact hgk
            go_wp2_with (first | fail)
            exact frPost_mk rfl (by repeat (first | assumption | exact Below.refl _ _ | refine bch ?_ (by assumption) | refine Below.alloc ?_ (by simp) _)) rfl
          · intro x w' hbw hd
            have d9 : x 9 = .bool true := hd 9 rfl
            have d13 : x 13 = .string sj := hd 13 rfl
            have d17 : x 17 = .string s := hd 17 rfl
            clear hd
            go_wp2_with fail
            exact frPost_mk rfl (by repeat (first | assumption | exact Below.refl _ _ | refine bch ?_ (by assumption) | refine Below.alloc ?_ (by simp) _)) rfl
          · intro x w' hbw hd
            have d9 : x 9 = .bool true := hd 9 rfl
            have d18 : x 18 = .bool ne := hd 18 rfl
            clear hd
            go_wp2_with fail
            exact frPost_mk rfl (by repeat (first | assumption | exact Below.refl _ _ | refine bch ?_ (by assumption) | refine Below.alloc ?_ (by simp) _)) rfl
        intro x w8 hbw hall
        have hx19 : x 19 = .bool ne := hall 19 (by decide)
        clear hall
        simp only [hx19]
        cases ne
        · go_wp2
          go_roundw
          case rel => exact ⟨j + 1, by omega, by go_num, Lib.hid (fun t ht => by
              rcases Nat.lt_or_ge t j with h9 | h9
              · exact HB.out t h9
              · obtain rfl : t = j := by omega
                rw [HCL.out]; rfl), hbW.trans (hbw.mono hbW.size)⟩
          case measure => (simp [intOf]) <;> omega
        · obtain rfl : r = true := by rw [← HR.out]; exact clash_is hkl hlj HCL.out
          go_wp2
          go_ret
          exact ⟨rfl, hb9.trans ((hbW.trans (hbw.mono hbW.size)).mono hb9.size)⟩
end Go.Proofs.YtfikbaoiialfeaaDoor
namespace Go.Proofs.YtfikbaoiialfeaaDoor
open Go.RowKit
set_option linter.unusedVariables false
section
variable {P : Program}
theorem wp_region_stH {id : Nat} {Q : Exit → Act → World → Prop} {a : Act} {w : World} {l : List Oper} (I : (Nat → Bool) → (Nat → Value) → World → Prop) (hm : P.follows .mixedOrders = true)
    (hd : dstsOkG l = true) (he : edgesOk 0 l = true)
    (base : ∀ x, fillFrom 0 l x a = a → I (fun _ => false) x { w with drawn := w.drawn + 1 })
    (step : ∀ i o, l[i]? = some o → ∀ (D : Nat → Bool) (x : Nat → Value) (w' : World), D i = false → I D x w' → (∀ e ∈ o.after.toList, Region.binds .any e = true → D e.on = true) → Closed l D →
      wpList P l.toArray (fun e a' w'' => e = .normal ∧ ∃ v, a' = (fillFrom 0 l x a).put o.dst v ∧ I (fun j => j == i || D j) (fun j => if j = i then v else x j) w'') [o] (fillFrom 0 l x a) w')
    (post : ∀ x w', I (fun j => decide (j < l.length)) x w' → Q .normal (fillFrom 0 l x a) w') :
    (Code.region id l.toArray true).wp P Q a w := by
  rw [dstsOkG, decide_eq_true_eq] at hd
  have hnd := hd
  have key : ∀ (fuel : Nat) (listed : Array Bool) (x : Nat → Value) (w' : World), listed.size = l.length → listed.toList.count false ≤ fuel → I (fun j => listed.getD j false) x w' →
      Closed l (fun j => listed.getD j false) → wpAny P .any l.toArray Q fuel listed (fillFrom 0 l x a) w' := by
    intro fuel
    have done : ∀ (listed : Array Bool) (x : Nat → Value) (w' : World), listed.size = l.length → I (fun j => listed.getD j false) x w' →
        Region.ready .any l.toArray listed = [] → Q .normal (fillFrom 0 l x a) w' := by
      intro listed x w' hsz hb hr
      have all : ∀ j, j < l.length → listed.getD j false = true := by
        intro j
        induction j using Nat.strongRecOn with
        | _ j ihj =>
          intro hj
          cases hl : listed.getD j false with
          | true => rfl
          | false =>
            exfalso
            have hmem : j ∈ Region.ready .any l.toArray listed := by
              rw [mem_ready]
              refine ⟨?_, l[j], by simp [hj], fun e hmem hb' => ?_⟩
              · have hjs : j < listed.size := by omega
                simp only [Array.getD, hjs, dif_pos] at hl ⊢
                exact hl
              · have hlt := edgesOk_lt l 0 he j l[j] (List.getElem?_eq_getElem hj) e (by simpa using hmem) hb'
                exact ihj e.on (by omega) (by omega)
            rw [hr] at hmem
            cases hmem
      refine post x w' ?_
      have hfun : (fun j => listed.getD j false) = (fun j => decide (j < l.length)) := by
        funext j
        by_cases hj : j < l.length
        · rw [all j hj, decide_eq_true hj]
        · rw [decide_eq_false hj]
          simp [Array.getD, hsz, hj]
      rw [← hfun]; exact hb
    induction fuel with
    | zero =>
      intro listed x w' hsz hc hb hcl
      have hr : Region.ready .any l.toArray listed = [] := by
        rw [List.eq_nil_iff_forall_not_mem]
        intro j hj
        obtain ⟨h1, o, ho, _⟩ := mem_ready.1 hj
        have hjl : j < l.length := by
          have := (Array.getElem?_eq_some_iff.1 ho).1
          simpa using this
        have hjs : j < listed.size := by omega
        have hcount : 0 < listed.toList.count false := by
          rw [List.count_pos_iff]
          simp only [Array.getD, hjs, dif_pos] at h1
          rw [← h1]
          simp
        omega
      exact ⟨hr, done listed x w' hsz hb hr⟩
    | succ fuel ih =>
      intro listed x w' hsz hc hb hcl
      refine ⟨done listed x w' hsz hb, fun i hi => ?_⟩
      obtain ⟨h1, o, ho, hdep⟩ := mem_ready.1 hi
      have hol : l[i]? = some o := by simpa using ho
      have hil : i < l.length := (List.getElem?_eq_some_iff.1 hol).1
      have his : i < listed.size := by omega
      have h1f : listed.getD i false = false := by
        simp only [Array.getD, his, dif_pos] at h1 ⊢; exact h1
      have hst := step i o hol (fun j => listed.getD j false) x w' h1f hb (fun e hmem hb' => hdep e (by simpa using hmem) hb') hcl
      have hnext : ∀ a' w'', (∃ v, a' = (fillFrom 0 l x a).put o.dst v ∧ I (fun j => j == i || listed.getD j false) (fun j => if j = i then v else x j) w'') →
          wpAny P .any l.toArray Q fuel (listed.setIfInBounds i true) a' w'' := by
        rintro a' w'' ⟨v, rfl, hb2⟩
        rw [fillFrom_setG l 0 x a i o v hol hnd, Nat.zero_add]
        have hfun : (fun j => (listed.setIfInBounds i true).getD j false) = (fun j => j == i || listed.getD j false) := by
          funext j
          by_cases hji : j = i
          · subst hji; simp [Array.getD, his]
          · rw [Array.getD_eq_getD_getElem?, Array.getElem?_setIfInBounds_ne (Ne.symm hji), ← Array.getD_eq_getD_getElem?]; simp [hji]
        refine ih _ _ w'' (by simpa using hsz) ?_ (by rw [hfun]; exact hb2) ?_
        · have : (listed.setIfInBounds i true).toList.count false + 1 = listed.toList.count false := by
            rw [Array.toList_setIfInBounds]
            have hg : listed.toList[i]? = some false := by
              simp only [Array.getD, his, dif_pos] at h1
              rw [List.getElem?_eq_getElem (by simpa using his)]
              simpa using h1
            have hil' : i < listed.toList.length := by simpa using his
            have hgi : listed.toList[i] = false := (List.getElem?_eq_some_iff.1 hg).2
            rw [List.count_set hil', hgi]
            have hpos : 0 < listed.toList.count false := by
              rw [List.count_pos_iff, ← hgi]; exact List.getElem_mem _
            have e1 : (false == false) = true := rfl
            have e2 : (true == false) = false := rfl
            rw [e1, e2]
            simp only [if_true, Bool.false_eq_true, if_false]
            omega
          omega
        · rw [hfun]
          intro j o' ho' hj e hmem hbd
          by_cases hji : j = i
          · subst hji
            obtain rfl : o = o' := by rw [hol] at ho'; exact Option.some.inj ho'
            have := hdep e (by simpa using hmem) hbd
            simp [this]
          · have hj' : listed.getD j false = true := by simpa [hji] using hj
            have := hcl j o' ho' hj' e hmem hbd
            simp only at this
            simp [this]
      unfold wpOp
      simp only [ho]
      unfold wpList at hst
      split
      · rename_i hw
        rw [if_pos hw] at hst
        rcases hst with hst | ⟨_, a'', w'', e, _⟩
        · exact .inl (wp_other (R := fun e a' w'' => e = .normal ∧ ∃ v, a' = (fillFrom 0 l x a).put o.dst v ∧ I (fun j => j == i || listed.getD j false) (fun j => if j = i then v else x j) w'') (fun a' w'' h => hnext a' w'' h.2) (fun e _ _ h => h.1) hst)
        · cases e
      · rename_i hw
        rw [if_neg hw] at hst
        exact hnext _ _ hst.2
  obtain ⟨x0, hx0⟩ := fillFrom_idG l 0 a
  refine wp_region_any hm ?_
  have hf0 : (fun j => (Array.replicate l.length false).getD j false) = (fun _ => false) := by
    funext j
    rcases Nat.lt_or_ge j l.length with h | h
    · simp [Array.getD, h]
    · simp [Array.getD, Nat.not_lt.2 h]
  have := key l.length (Array.replicate l.length false) x0 { w with drawn := w.drawn + 1 } (by simp) (by simp) (by rw [hf0]; exact base x0 hx0) (by rw [hf0]; intro j o ho hj; cases hj)
  rw [hx0] at this
  simpa using this
end
/-- The region, told by a state that goes by what is done and by the values so far, its frame written out, one step an operation. -/
theorem wp_region_stateH {P : Program} {id : Nat} {Q : Exit → Act → World → Prop} {a : Act} {w : World} {l : List Oper} {fr : (Nat → Value) → Act} (I : (Nat → Bool) → (Nat → Value) → World → Prop) (hm : P.follows .mixedOrders = true)
    (hd : dstsOkG l = true) (he : edgesOk 0 l = true) (hf : inFrame1 a.tmps.size l = true) (hfr : ∀ x, fillFrom 0 l x a = fr x)
    (base : ∀ x, fr x = a → I (fun _ => false) x { w with drawn := w.drawn + 1 }) (steps : GSteps P l fr (GSt I) 0 l)
    (post : ∀ w' (x : Nat → Value), I (fun j => decide (j < l.length)) x w' → Q .normal (fr x) w') : (Code.region id l.toArray true).wp P Q a w := by
  refine wp_region_stH (GSt I) hm hd he (fun x hx => ⟨base x (by rw [← hfr]; exact hx)⟩) (fun i o ho D x w' hD hI hdep hcl => ?_) (fun x w' hI => by rw [hfr]; exact post w' x hI.out)
  have hst := by simpa using gSteps_all l 0 steps i o ho
  have h1 := hst D x w' hD hI (fun j hj => by
    simp only [waits, List.any_eq_true, Bool.and_eq_true, beq_iff_eq] at hj
    obtain ⟨e, he1, he2, he3⟩ := hj
    rw [← he2]; exact hdep e he1 he3) hcl
  rw [hfr]
  have hlt : ∀ d, o.dst = some d → d < (fr x).tmps.size := fun d hdo => by
    rw [← hfr, fillFrom_size]
    have := List.all_eq_true.1 hf o (List.mem_of_getElem? ho)
    rw [hdo] at this
    simpa using this
  unfold wpList at h1 ⊢
  split
  · rename_i hw
    rw [if_pos hw] at h1
    rcases h1 with h1 | ⟨_, a'', w'', e, _⟩
    · refine .inl (wp_put (R := GPost (fr x).defers o.dst (fun v => GSt I (fun j => j == i || D j) (fun j => if j = i then v else x j))) (fun e _ _ h => h.1) (fun _ _ h => h.2.1) (fun v w'' h => ⟨rfl, ?_⟩) h1)
      obtain ⟨_, _, u, hu, hI2⟩ := h
      refine ⟨u, ?_, hI2⟩
      cases hdo : o.dst with
      | none => rfl
      | some d =>
        have h9 := hu d hdo
        rw [hdo] at h9
        simp only [Act.put] at h9
        rw [Array.getD_eq_getD_getElem?, Array.getElem?_setIfInBounds_self_of_lt (hlt d hdo)] at h9
        have h10 : v = u := h9
        rw [h10]
    · cases e
  · rename_i hw
    rw [if_neg hw] at h1
    obtain ⟨_, _, u, hu, hI2⟩ := h1
    refine ⟨rfl, u, ?_, hI2⟩
    cases hdo : o.dst with
    | none => rfl
    | some d =>
      have h9 := hu d hdo
      rw [hdo] at h9
      simp only [Act.put] at h9
      rw [Array.getD_eq_getD_getElem?, Array.getElem?_setIfInBounds_self_of_lt (hlt d hdo)] at h9
      have h10 : undef = u := h9
      rw [← h10]
end Go.Proofs.YtfikbaoiialfeaaDoor
namespace Go.Proofs.YtfikbaoiialfeaaDoor
open Go.RowKit
attribute [local go_sem] strV
set_option linter.unusedVariables false
theorem Tryd.infoSt : (Tryd.prog.info? 9).map (fun i => (i.zero, i.size, i.bytes)) = some (some (.string ⟨#[]⟩), 1, 16) := by kernel_rfl
def strB (t : List UInt8) : ByteArray := ⟨t.toArray⟩
theorem strB_data (t : List UInt8) : (strB t).data.toList = t := by simp [strB]
theorem strB_size (t : List UInt8) : (strB t).size = t.length := by simp [strB, ByteArray.size]
theorem strB_app (a b : List UInt8) : strB a ++ strB b = strB (a ++ b) := ba_data (by rw [ByteArray.data_append, Array.toList_append, strB_data, strB_data, strB_data])
/-- The strings of some texts. -/
def strsB (T : List (List UInt8)) : List ByteArray := T.map strB
theorem strsB_app (a b : List (List UInt8)) : strsB (a ++ b) = strsB a ++ strsB b := List.map_append
theorem strsB_flat (a b : List (List UInt8)) : (strsB (a ++ b)).flatMap sval = (strsB a).flatMap sval ++ (strsB b).flatMap sval := by rw [strsB_app, List.flatMap_append]
theorem strsB_len (T : List (List UInt8)) : (strsB T).length = T.length := List.length_map ..
theorem sval_flat_len (S : List ByteArray) : (S.flatMap sval).length = S.length * 1 := flat_length sval 1 sval_lenC S
theorem sval_one (S : List ByteArray) : ∀ u ∈ S.flatMap sval, u.oneCell' = true := by
  intro u hu
  obtain ⟨s, _, hs⟩ := List.mem_flatMap.1 hu
  rw [List.mem_singleton.1 hs]; rfl
theorem row_newsA {w : World} {a : Option Addr} {n c : Nat} {vs : List Value} (h : RowAt w a vs) (ha : (a = none ∧ n = 0 ∧ c = 0) ∨ ∃ b off, a = some ⟨b, off, none⟩) : ∀ ad, a = some ad → ∀ (j : Nat) (u : Value), vs[j]? = some u → w.cell? (ad.add j) = some u := by
  intro ad e j u hu
  rcases ha with ⟨rfl, _⟩ | ⟨b, off, rfl⟩
  · cases e
  · obtain rfl := Option.some.inj e
    rw [Addr.add_lit]; exact row_get h hu
theorem none_newsA {a : Option Addr} {n c : Nat} (ha : (a = none ∧ n = 0 ∧ c = 0) ∨ ∃ b off, a = some ⟨b, off, none⟩) : a = none → n = 0 ∧ c = 0 := by
  rintro rfl
  rcases ha with ⟨_, h⟩ | ⟨b, off, h⟩
  · exact h
  · cases h
theorem new_strA (w5 : World) (s : ByteArray) : ∀ ad, some (⟨w5.heap.size, 0, none⟩ : Addr) = some ad → ∀ (j : Nat) (u : Value), ([s].flatMap sval)[j]? = some u → (w5.alloc (.cells #[.string s] 9)).cell? (ad.add j) = some u := by
  intro ad e j u hu
  obtain rfl := Option.some.inj e
  rw [Addr.add_lit, Nat.zero_add]
  rw [cell_heap (heap_push w5 #[.string s] 9) j]
  simpa [sval] using hu
theorem topT_few {l : List H32} (h : ¬ 2 ≤ l.length) : topT l = [] := by rw [topT, dif_neg h]
theorem topT_len : ∀ (m : Nat) (l : List H32), l.length = m → (topT l).length + 1 ≤ m + (1 - m) := by
  intro m
  induction m using Nat.strongRecOn with
  | _ m ih =>
  intro l hl
  rcases Nat.lt_or_ge m 2 with h | h
  · rw [topT_few (by omega), List.length_nil]; omega
  · have h1 := halfN_lt h
    have h2 := halfN_pos m
    have e1 := topT_two (l := l) (by omega)
    rw [hl] at e1
    have a1 := ih (halfN m) h1 (l.take (halfN m)) (by rw [List.length_take]; omega)
    have a2 := ih (m - halfN m) (by omega) (l.drop (halfN m)) (by rw [List.length_drop]; omega)
    rw [e1, List.length_append, List.length_append, List.length_singleton]
    omega
theorem grown_atC {w w' : World} {row : Option Nat} (hg : w.grownBy w' row) {g : Nat} {X : Obj} (h : w.heap[g]? = some X) (hne : some g ≠ row) : w'.heap[g]? = some X := by
  rw [hg.block g (Array.getElem?_eq_some_iff.1 h).1 hne]; exact h
def TopPost (w : World) (l : List H32) (e : Ending) (w' : World) : Prop := ∃ v, e = .returned (.tuple #[v, .agg (hrow (topH l).1)]) ∧ w'.ownsRow w.heap.size 9 1 v (strsB (topT l)).length ((strsB (topT l)).flatMap sval) ∧ Below w.heap.size w w'
set_option maxRecDepth 100000 in
set_option maxHeartbeats 6400000 in
theorem topT_any : ∀ (m : Nat) (l : List H32) (a : Option Addr) (cap : Nat) (w : World), l.length = m → m ≤ 1000000 → m ≤ cap → cap ≤ maxLen → RowAt w a (l.flatMap H32.cells) →
    Calls Tryd.prog 96 #[.slice a m cap] w (TopPost w l) := by
  intro m
  induction m using Nat.strongRecOn with
  | _ m ih =>
  intro l a cap w hl hm hcap hcm hr
  have g9 := heap_push w #[Value.int .u8 0, Value.int .u8 0, Value.int .u8 0, Value.int .u8 0, Value.int .u8 0, Value.int .u8 0, Value.int .u8 0, Value.int .u8 0, Value.int .u8 0, Value.int .u8 0, Value.int .u8 0, Value.int .u8 0, Value.int .u8 0, Value.int .u8 0, Value.int .u8 0, Value.int .u8 0, Value.int .u8 0, Value.int .u8 0, Value.int .u8 0, Value.int .u8 0, Value.int .u8 0, Value.int .u8 0, Value.int .u8 0, Value.int .u8 0, Value.int .u8 0, Value.int .u8 0, Value.int .u8 0, Value.int .u8 0, Value.int .u8 0, Value.int .u8 0, Value.int .u8 0, Value.int .u8 0] 25
  have hbA : Below w.heap.size w (w.alloc (.cells #[Value.int .u8 0, Value.int .u8 0, Value.int .u8 0, Value.int .u8 0, Value.int .u8 0, Value.int .u8 0, Value.int .u8 0, Value.int .u8 0, Value.int .u8 0, Value.int .u8 0, Value.int .u8 0, Value.int .u8 0, Value.int .u8 0, Value.int .u8 0, Value.int .u8 0, Value.int .u8 0, Value.int .u8 0, Value.int .u8 0, Value.int .u8 0, Value.int .u8 0, Value.int .u8 0, Value.int .u8 0, Value.int .u8 0, Value.int .u8 0, Value.int .u8 0, Value.int .u8 0, Value.int .u8 0, Value.int .u8 0, Value.int .u8 0, Value.int .u8 0, Value.int .u8 0, Value.int .u8 0] 25)) := Below.alloc (Below.refl _ _) (Nat.le_refl _) _
  unfold TopPost
  unfold TopPost at ih
  rcases Nat.lt_or_ge m 2 with hm2 | hm2
  · have hT0 : strsB (topT l) = [] := by rw [topT_few (by omega)]; rfl
    simp only [hT0]
    clear ih hT0
    rcases Nat.eq_zero_or_pos m with h0 | h0
    · obtain rfl := h0
      obtain rfl := List.eq_nil_of_length_eq_zero hl
      have HT : Hid ((topH []).1 = z32) := Lib.hid (by rw [topH_nil]; rfl)
      have hz : (hrow z32).size = 32 := by rfl
      have hzo := hrow_one z32
      go_enter Tryd.func96, Tryd.ntmps96
      go_upto_region 1 with fail
      refine wp_nameE _ (fun W1 hX => ?_)
      have y9 : W1.heap[w.heap.size]? = some (.cells #[Value.int .u8 0, Value.int .u8 0, Value.int .u8 0, Value.int .u8 0, Value.int .u8 0, Value.int .u8 0, Value.int .u8 0, Value.int .u8 0, Value.int .u8 0, Value.int .u8 0, Value.int .u8 0, Value.int .u8 0, Value.int .u8 0, Value.int .u8 0, Value.int .u8 0, Value.int .u8 0, Value.int .u8 0, Value.int .u8 0, Value.int .u8 0, Value.int .u8 0, Value.int .u8 0, Value.int .u8 0, Value.int .u8 0, Value.int .u8 0, Value.int .u8 0, Value.int .u8 0, Value.int .u8 0, Value.int .u8 0, Value.int .u8 0, Value.int .u8 0, Value.int .u8 0, Value.int .u8 0] 25 (0, 0)) := by rw [hX]; exact g9
      have hbel : Below w.heap.size w W1 := by rw [hX]; exact hbA
      have hsz1 : W1.heap.size = w.heap.size + 1 := by rw [hX]; exact Array.size_push _
      clear hX g9 hbA
      have hy9 : w.heap.size < W1.heap.size := (Array.getElem?_eq_some_iff.1 y9).1
      go_wp2_with (refine wpList_storeRowTo (Z := hrow z32) rfl (.tmp 3) (.tmp 13) 25 rfl (by rw [hz]; kernel_rfl) rfl (by rfl) y9 (by rw [hz]; rfl) hzo ?_)
      have hrd := run_loadVar_row (P := Tryd.prog) _ _ 25 25 _ (0, 0) _ (setRow_heap _ _ _ _ _ _ y9) Tryd.underlying25 rfl (by rw [hz]; kernel_rfl)
      refine bodyPost_ret (v := .tuple #[.slice none 0 0, .agg (hrow z32)]) ?_ rfl ?_
      · simp [results, Tryd.results96, asAddr, Act.put, hrd]
        try rfl
      exact ⟨_, by rw [HT.out], ⟨rfl, .inl ⟨rfl, rfl⟩⟩, below_setRow hbel (Nat.le_refl _) _⟩
    · obtain rfl : m = 1 := by omega
      obtain ⟨q, rfl⟩ := List.length_eq_one_iff.1 hl
      have HT : Hid ((topH [q]).1 = q.1) := Lib.hid (by rw [topH_one])
      have hq : (hrow q.1).size = 32 := by rw [hrow_size]; exact q.2
      have hqo := hrow_one q.1
      have hrB := hr.below hbA
      obtain ⟨b, off, rfl, hb, hrg⟩ := hs_at hrB (k := 0) (by simp)
      simp only [Nat.zero_mul, Nat.add_zero, List.getElem_cons_zero] at hrg
      have hqi : (Tryd.prog.info? 25).map (·.size) = some q.cells.length := by rw [H32.cells_len]; kernel_rfl
      go_enter Tryd.func96, Tryd.ntmps96
      go_upto_region 1 with fail
      refine wp_nameE _ (fun W1 hX => ?_)
      have y9 : W1.heap[w.heap.size]? = some (.cells #[Value.int .u8 0, Value.int .u8 0, Value.int .u8 0, Value.int .u8 0, Value.int .u8 0, Value.int .u8 0, Value.int .u8 0, Value.int .u8 0, Value.int .u8 0, Value.int .u8 0, Value.int .u8 0, Value.int .u8 0, Value.int .u8 0, Value.int .u8 0, Value.int .u8 0, Value.int .u8 0, Value.int .u8 0, Value.int .u8 0, Value.int .u8 0, Value.int .u8 0, Value.int .u8 0, Value.int .u8 0, Value.int .u8 0, Value.int .u8 0, Value.int .u8 0, Value.int .u8 0, Value.int .u8 0, Value.int .u8 0, Value.int .u8 0, Value.int .u8 0, Value.int .u8 0, Value.int .u8 0] 25 (0, 0)) := by rw [hX]; exact g9
      have hbel : Below w.heap.size w W1 := by rw [hX]; exact hbA
      have hsz1 : W1.heap.size = w.heap.size + 1 := by rw [hX]; exact Array.size_push _
      have hb : b < W1.heap.size := by rw [hX]; exact hb
      have hrg : W1.rangeAt b off q.cells := by rw [hX]; exact hrg
      clear hX g9 hbA hrB
      have hy9 : w.heap.size < W1.heap.size := (Array.getElem?_eq_some_iff.1 y9).1
      go_upto_region 4 with fail
      refine wp_region_facts_tail 4 rfl [Fact.eq (.slice (some ⟨b, off, none⟩) 1 cap), Fact.eq (.pointer (some ⟨b, off, none⟩)), Fact.eq (.agg (hrow q.1)), Fact.eq (.slice none 0 0)] (by kernel_rfl) (by kernel_rfl) (by kernel_rfl) (by kernel_rfl) (by kernel_rfl) (fun x => by simp only [List.take_succ_cons, List.take_zero, fillFrom, Act.put, List.setIfInBounds_toArray, List.set_cons_succ, List.set_cons_zero]; rfl) ?_ ?_
      · refine ⟨?_, ?_, ?_, ?_, trivial⟩
        · intro x w' hbw hd
          clear hd
          go_wp2_with fail
          exact frPost_mk rfl (by repeat (first | assumption | exact Below.refl _ _ | refine bch ?_ (by assumption) | refine Below.alloc ?_ (by simp) _)) rfl
        · intro x w' hbw hd
          have d0 : x 0 = .slice (some ⟨b, off, none⟩) 1 cap := hd 0 rfl
          clear hd
          go_wp2_with fail
          exact frPost_mk rfl (by repeat (first | assumption | exact Below.refl _ _ | refine bch ?_ (by assumption) | refine Below.alloc ?_ (by simp) _)) (by first | rfl | (show Value.pointer _ = Value.pointer _; simp))
        · intro x w' hbw hd
          have d1 : x 1 = .pointer (some ⟨b, off, none⟩) := hd 1 rfl
          clear hd
          have hrg2 : w'.rangeAt b off q.cells := fun t v hv => by rw [hbw.cell (p := ⟨b, off + t, none⟩) hb]; exact hrg t v hv
          go_wp2_with (first | (refine wpList_load_mid rfl 25 (.tmp 18) rfl b off (by first | exact d1 | rfl) q.cells _ hrg2 Tryd.underlying25 rfl hqi ?_; rw [H32.row]))
          exact frPost_mk rfl (by repeat (first | assumption | exact Below.refl _ _ | refine bch ?_ (by assumption) | refine Below.alloc ?_ (by simp) _)) rfl
        · intro x w' hbw hd
          clear hd
          go_wp2_with fail
          exact frPost_mk rfl (by repeat (first | assumption | exact Below.refl _ _ | refine bch ?_ (by assumption) | refine Below.alloc ?_ (by simp) _)) rfl
      · intro x w' hbw hall
        have hx2 : x 2 = .agg (hrow q.1) := hall 2 (by decide)
        have hx3 : x 3 = .slice none 0 0 := hall 3 (by decide)
        clear hall
        have y9 := cells_of y9 hbw hy9
        have hbel := hbel.trans (hbw.mono hbel.size)
        simp only [hx2, hx3, List.drop_succ_cons, List.drop_zero]
        go_wp2_with (refine wpList_storeRowTo (Z := hrow q.1) rfl (.tmp 3) (.tmp 19) 25 rfl (by rw [hq]; kernel_rfl) rfl (by rfl) y9 (by rw [hq]; rfl) hqo ?_)
        have hrd := run_loadVar_row (P := Tryd.prog) _ _ 25 25 _ (0, 0) _ (setRow_heap _ _ _ _ _ _ y9) Tryd.underlying25 rfl (by rw [hq]; kernel_rfl)
        refine bodyPost_ret (v := .tuple #[.slice none 0 0, .agg (hrow q.1)]) ?_ rfl ?_
        · simp [results, Tryd.results96, asAddr, Act.put, hrd]
          try rfl
        exact ⟨_, by rw [HT.out], ⟨rfl, .inl ⟨rfl, rfl⟩⟩, below_setRow hbel (Nat.le_refl _) _⟩
  · have d0 : ((m : Int) == 0) = false := beq_eq_false_iff_ne.2 (by omega)
    have d1 : ((m : Int) == 1) = false := beq_eq_false_iff_ne.2 (by omega)
    have hr1 := hs_take hr (halfN l.length)
    obtain ⟨b, off, rfl, hb, _⟩ := hs_at hr (k := 0) (by omega)
    have hr2 := hs_drop hr (halfN l.length)
    have HT := topH_two (l := l) (by omega)
    have HS := topT_two (l := l) (by omega)
    have CH := fun W : World => refHalfN_any m W hm2 (by omega)
    have hlt := halfN_lt hm2
    have hpos := halfN_pos m
    rw [hl] at hr1 hr2 HT HS
    have L1 := topT_len (halfN m) (l.take (halfN m)) (by rw [List.length_take]; omega)
    have L2 := topT_len (m - halfN m) (l.drop (halfN m)) (by rw [List.length_drop]; omega)
    have IH1 := fun W (hb : Below w.heap.size w W) => ih (halfN m) hlt (l.take (halfN m)) (some ⟨b, off, none⟩) cap W (by rw [List.length_take]; omega) (by omega) (by omega) hcm (hr1.below hb)
    have IH2 := fun W (hb : Below w.heap.size w W) => ih (m - halfN m) (by omega) (l.drop (halfN m)) (some ⟨b, off + halfN m * 32, none⟩) (cap - halfN m) W (by rw [List.length_drop]; omega) (by omega) (by omega) (by omega) (hr2.below hb)
    obtain ⟨h, hh⟩ : ∃ h, halfN m = h := ⟨_, rfl⟩
    simp only [hh] at HT HS CH hlt hpos IH1 IH2 L1 L2
    obtain ⟨T1, hT1⟩ : ∃ T, topH (l.take h) = T := ⟨_, rfl⟩
    obtain ⟨T2, hT2⟩ : ∃ T, topH (l.drop h) = T := ⟨_, rfl⟩
    obtain ⟨S1, hS1⟩ : ∃ T, topT (l.take h) = T := ⟨_, rfl⟩
    obtain ⟨S2, hS2⟩ : ∃ T, topT (l.drop h) = T := ⟨_, rfl⟩
    simp only [hT1, hS1] at HT HS IH1 L1
    simp only [hT2, hS2] at HT HS IH2 L2
    have htt : strB (nodeT T1 T2) = (⟨#[1]⟩ : ByteArray) ++ strB T1.1 ++ strB T2.1 := by rw [show (⟨#[1]⟩ : ByteArray) = strB [1] from rfl, strB_app, strB_app]; rfl
    have CX := fun W => refText_any W T1.1 T1.2
    have CY := fun W => refText_any W T2.1 T2.2
    have CSu := fun W => refSum_any (strB (nodeT T1 T2)) W (by rw [strB_size]; unfold nodeT; simp [T1.2, T2.2])
    rw [strB_data] at CSu
    have hsum : shaF (nodeT T1 T2) = nodeF T1.1 T2.1 := rfl
    rw [hsum] at CSu
    have hXs : (strB T1.1).size = 32 := by rw [strB_size]; exact T1.2
    have hYs : (strB T2.1).size = 32 := by rw [strB_size]; exact T2.2
    rw [show (⟨T1.1.toArray⟩ : ByteArray) = strB T1.1 from rfl] at CX
    rw [show (⟨T2.1.toArray⟩ : ByteArray) = strB T2.1 from rfl] at CY
    obtain ⟨X, hX9⟩ : ∃ X, strB T1.1 = X := ⟨_, rfl⟩
    obtain ⟨Y, hY9⟩ : ∃ Y, strB T2.1 = Y := ⟨_, rfl⟩
    simp only [hX9] at CX hXs htt
    simp only [hY9] at CY hYs htt
    rw [htt] at CSu
    have h1s : (⟨#[1]⟩ : ByteArray).size = 1 := rfl
    have hcat1 : ¬ 9223372036854775807 < (⟨#[1]⟩ : ByteArray).size + X.size := by omega
    have hcat2 : ¬ 9223372036854775807 < ((⟨#[1]⟩ : ByteArray) ++ X).size + Y.size := by rw [ByteArray.size_append]; omega
    have hcat3 : ¬ 9223372036854775807 < 1 + X.size := by omega
    have hcat4 : ¬ 9223372036854775807 < 1 + X.size + Y.size := by omega
    have hcat5 : ¬ 9223372036854775807 < (⟨#[1]⟩ : ByteArray).size + X.size + Y.size := by omega
    have HT : Hid ((topH l).1 = nodeF T1.1 T2.1) := Lib.hid (by rw [HT]; rfl)
    have HS : Hid (strsB (topT l) = strsB S1 ++ strsB S2 ++ [(⟨#[1]⟩ : ByteArray) ++ X ++ Y]) := Lib.hid (by rw [HS, strsB_app, strsB_app, ← htt]; rfl)
    have LS1 := strsB_len S1
    have LS2 := strsB_len S2
    obtain ⟨P1, hP1⟩ : ∃ P, strsB S1 = P := ⟨_, rfl⟩
    obtain ⟨P2, hP2⟩ : ∃ P, strsB S2 = P := ⟨_, rfl⟩
    simp only [hP1] at IH1 LS1 HS
    simp only [hP2] at IH2 LS2 HS
    have hl1 : P1.length ≤ 1000000 := by omega
    have hl2 : P2.length ≤ 1000000 := by omega
    have HL2 := Lib.hid (sval_flat_len P2)
    obtain ⟨i0, hi, hz0, hz1, hz2⟩ := info_parts Tryd.infoSt
    have t1 : (hrow T1.1).size = 32 := by rw [hrow_size]; exact T1.2
    have t1o := hrow_one T1.1
    have t2 : (hrow T2.1).size = 32 := by rw [hrow_size]; exact T2.2
    have t2o := hrow_one T2.1
    have t3 : (hrow (nodeF T1.1 T2.1)).size = 32 := by rw [hrow_size]; exact nodeF_len T1.1 T2.1
    have t3o := hrow_one (nodeF T1.1 T2.1)
    clear hh hT1 hT2 hS1 hS2 ih hX9 hY9 htt hXs hYs hsum hP1 hP2 L1 L2 LS1 LS2 h1s
    have n1 : (0 : Int) ≤ (h : Int) := by omega
    have n2 : (h : Int) ≤ (cap : Int) := by omega
    have n3 : (h : Int) ≤ (m : Int) := by omega
    have n4 : (m : Int) ≤ (cap : Int) := by omega
    have n5 : ((h : Nat) : Int).toNat = h := by omega
    have n6 : h ≤ cap := by omega
    have n7 : h ≤ m := by omega
    go_enter Tryd.func96, Tryd.ntmps96
    go_upto_region 1 with fail
    refine wp_nameE _ (fun W1 hX => ?_)
    have y9 : W1.heap[w.heap.size]? = some (.cells #[Value.int .u8 0, Value.int .u8 0, Value.int .u8 0, Value.int .u8 0, Value.int .u8 0, Value.int .u8 0, Value.int .u8 0, Value.int .u8 0, Value.int .u8 0, Value.int .u8 0, Value.int .u8 0, Value.int .u8 0, Value.int .u8 0, Value.int .u8 0, Value.int .u8 0, Value.int .u8 0, Value.int .u8 0, Value.int .u8 0, Value.int .u8 0, Value.int .u8 0, Value.int .u8 0, Value.int .u8 0, Value.int .u8 0, Value.int .u8 0, Value.int .u8 0, Value.int .u8 0, Value.int .u8 0, Value.int .u8 0, Value.int .u8 0, Value.int .u8 0, Value.int .u8 0, Value.int .u8 0] 25 (0, 0)) := by rw [hX]; exact g9
    have hbel : Below w.heap.size w W1 := by rw [hX]; exact hbA
    have hsz1 : W1.heap.size = w.heap.size + 1 := by rw [hX]; exact Array.size_push _
    clear hX g9 hbA
    have hy9 : w.heap.size < W1.heap.size := (Array.getElem?_eq_some_iff.1 y9).1
    have hs : W1.heap.size ≤ W1.heap.size := Nat.le_refl _
    go_upto_region 6 with (go_at_call 19; refine (CH _).mono ?_; rintro e w2 ⟨rfl, hb⟩; have y9 := cells_of y9 hb hy9; have hy9 := Nat.lt_of_lt_of_le hy9 hb.size; have hbel := hbel.trans (hb.mono hbel.size); have hs := Nat.le_trans hs hb.size; clear hb)
    go_upto_region 7 with (first | (go_at_call 96; refine (IH1 _ hbel).mono ?_; rintro e w6 ⟨va, rfl, hoa, hb⟩; have y9 := cells_of y9 hb hy9; have hy9 := Nat.lt_of_lt_of_le hy9 hb.size; have hbel := hbel.trans (hb.mono hbel.size); have hs6 := Nat.le_trans hs hb.size; clear hb) | (refine wpList_storeRowTo (Z := hrow T1.1) rfl (.tmp 6) (.tmp 29) 25 rfl (by rw [t1]; kernel_rfl) rfl (by rfl) (heap_push _ _ _) (by rw [t1]; rfl) t1o ?_))
    refine wp_nameE _ (fun W6 hX => ?_)
    have hA : Below w6.heap.size w6 W6 := by rw [hX]; exact below_setRow (Below.alloc (Below.refl _ _) (Nat.le_refl _) _) (Nat.le_refl _) _
    have k6 : W6.heap[w6.heap.size]? = some (.cells (hrow T1.1) 25 (0, 0)) := by rw [hX]; exact setRow_heap _ _ _ _ _ _ (heap_push _ _ _)
    have y9 := cells_of y9 hA hy9
    have hy9 := Nat.lt_of_lt_of_le hy9 hA.size
    have hbel := hbel.trans (hA.mono hbel.size)
    have hoa := own_keptH hoa hA
    have k6l := (Array.getElem?_eq_some_iff.1 k6).1
    obtain ⟨g6, hg6⟩ : ∃ g, w6.heap.size = g := ⟨_, rfl⟩
    have hg61 : W1.heap.size ≤ g6 := by rw [← hg6]; exact hs6
    rw [hg6] at k6 k6l
    simp only [hg6]
    have hs := Nat.le_trans hs6 hA.size
    clear hX hA
    go_upto_region 8 with (first | (go_at_call 96; refine (IH2 _ hbel).mono ?_; rintro e w7 ⟨vb, rfl, hob, hb⟩; have y9 := cells_of y9 hb hy9; have hy9 := Nat.lt_of_lt_of_le hy9 hb.size; have hbel := hbel.trans (hb.mono hbel.size); have hs7 := Nat.le_trans hs hb.size; have hoa := own_keptH hoa hb; have k6 := cells_of k6 hb k6l; have k6l := Nat.lt_of_lt_of_le k6l hb.size; clear hb) | (refine wpList_storeRowTo (Z := hrow T2.1) rfl (.tmp 8) (.tmp 36) 25 rfl (by rw [t2]; kernel_rfl) rfl (by rfl) (heap_push _ _ _) (by rw [t2]; rfl) t2o ?_))
    refine wp_nameE _ (fun W7 hX => ?_)
    have hA : Below w7.heap.size w7 W7 := by rw [hX]; exact below_setRow (Below.alloc (Below.refl _ _) (Nat.le_refl _) _) (Nat.le_refl _) _
    have k8 : W7.heap[w7.heap.size]? = some (.cells (hrow T2.1) 25 (0, 0)) := by rw [hX]; exact setRow_heap _ _ _ _ _ _ (heap_push _ _ _)
    have y9 := cells_of y9 hA hy9
    have hy9 := Nat.lt_of_lt_of_le hy9 hA.size
    have hbel := hbel.trans (hA.mono hbel.size)
    have hob := own_keptH hob hA
    have hoa := own_keptH hoa hA
    have k6 := cells_of k6 hA k6l
    have k6l := Nat.lt_of_lt_of_le k6l hA.size
    have k8l := (Array.getElem?_eq_some_iff.1 k8).1
    obtain ⟨g8, hg8⟩ : ∃ g, w7.heap.size = g := ⟨_, rfl⟩
    have hg81 : W1.heap.size ≤ g8 := by rw [← hg8]; exact hs7
    rw [hg8] at k8 k8l
    simp only [hg8]
    have hs := Nat.le_trans hs7 hA.size
    clear hX hA
    refine wp_region_facts [Fact.eq (.agg (hrow T1.1)), Fact.eq (.string X), Fact.eq (.string (⟨#[1]⟩ ++ X)), Fact.eq (.agg (hrow T2.1)), Fact.eq (.string Y), Fact.eq (.string (⟨#[1]⟩ ++ X ++ Y)), Fact.eq (.string (⟨#[1]⟩ ++ X ++ Y))] (by kernel_rfl) (by kernel_rfl) (by kernel_rfl) (by kernel_rfl) (fun x => by simp only [fillFrom, Act.put, List.setIfInBounds_toArray, List.set_cons_succ, List.set_cons_zero]; rfl) ?_ ?_
    · refine ⟨?_, ?_, ?_, ?_, ?_, ?_, ?_, trivial⟩
      · intro x w' hbw hd
        clear hd
        have hrg := hrow_range (cells_of k6 hbw k6l)
        go_wp2_with (first | (refine wpList_load_mid rfl 25 (.tmp 6) rfl g6 0 rfl T1.cells _ hrg Tryd.underlying25 rfl (hash_info T1) ?_; rw [H32.row]))
        exact frPost_mk rfl (by repeat (first | assumption | exact Below.refl _ _ | refine bch ?_ (by assumption) | refine Below.alloc ?_ (by simp) _)) rfl
      · intro x w' hbw hd
        have d0 : x 0 = .agg (hrow T1.1) := hd 0 rfl
        clear hd
        have CC := CX w'
        go_wp2_with (first | (go_at_call 69; refine (CC).mono ?_; rintro e wx ⟨rfl, hbx⟩))
        exact frPost_mk rfl (by repeat (first | assumption | exact Below.refl _ _ | refine bch ?_ (by assumption) | refine Below.alloc ?_ (by simp) _)) rfl
      · intro x w' hbw hd
        have d1 : x 1 = .string X := hd 1 rfl
        clear hd
        go_wp2_with fail
        exact frPost_mk rfl (by repeat (first | assumption | exact Below.refl _ _ | refine bch ?_ (by assumption) | refine Below.alloc ?_ (by simp) _)) rfl
      · intro x w' hbw hd
        clear hd
        have hrg := hrow_range (cells_of k8 hbw k8l)
        go_wp2_with (first | (refine wpList_load_mid rfl 25 (.tmp 8) rfl g8 0 rfl T2.cells _ hrg Tryd.underlying25 rfl (hash_info T2) ?_; rw [H32.row]))
        exact frPost_mk rfl (by repeat (first | assumption | exact Below.refl _ _ | refine bch ?_ (by assumption) | refine Below.alloc ?_ (by simp) _)) rfl
      · intro x w' hbw hd
        have d3 : x 3 = .agg (hrow T2.1) := hd 3 rfl
        clear hd
        have CC := CY w'
        go_wp2_with (first | (go_at_call 69; refine (CC).mono ?_; rintro e wx ⟨rfl, hbx⟩))
        exact frPost_mk rfl (by repeat (first | assumption | exact Below.refl _ _ | refine bch ?_ (by assumption) | refine Below.alloc ?_ (by simp) _)) rfl
      · intro x w' hbw hd
        have d2 : x 2 = .string (⟨#[1]⟩ ++ X) := hd 2 rfl
        have d4 : x 4 = .string Y := hd 4 rfl
        clear hd
        go_wp2_with fail
        exact frPost_mk rfl (by repeat (first | assumption | exact Below.refl _ _ | refine bch ?_ (by assumption) | refine Below.alloc ?_ (by simp) _)) rfl
      · intro x w' hbw hd
        have d5 : x 5 = .string (⟨#[1]⟩ ++ X ++ Y) := hd 5 rfl
        clear hd
        go_wp2_with fail
        exact frPost_mk rfl (by repeat (first | assumption | exact Below.refl _ _ | refine bch ?_ (by assumption) | refine Below.alloc ?_ (by simp) _)) rfl
    intro x w9 hbw hall
    have hx6 : x 6 = .string (⟨#[1]⟩ ++ X ++ Y) := hall 6 (by decide)
    clear hall
    simp only [hx6]
    have y9 := cells_of y9 hbw hy9
    have hbel := hbel.trans (hbw.mono hbel.size)
    have hs := Nat.le_trans hs hbw.size
    have hoa := own_lower (own_keptH hoa hbw) (show W1.heap.size ≤ _ by omega)
    have hob := own_keptH hob hbw
    obtain ⟨ab, cb, rfl, hrb, hcb1, hcb2, hab⟩ := own_sliceQ hob
    clear CX CY IH1 IH2 CH
    go_wp2_with (first | (at_builtin; refine wpList_append_ownA _ rfl (.tmp 43) (.tmp 44) 80 rfl W1.heap.size 9 i0 (.string ⟨#[]⟩) 1 16 Tryd.underlying80 hi hz0 hz1 hz2 rfl (by decide) _ _ _ rfl hoa ab P2.length cb (P2.flatMap sval) rfl (none_newsA hab) HL2.out (row_newsA hrb hab) (sval_one _) (by unfold maxLen; omega) (by omega) hs ?_; intro v10 w10 hown10 hgr10) | (at_builtin; refine wpList_append_ownA _ rfl (.tmp 45) (.tmp 47) 80 rfl W1.heap.size 9 i0 (.string ⟨#[]⟩) 1 16 Tryd.underlying80 hi hz0 hz1 hz2 rfl (by decide) _ _ _ rfl (hown10.alloc _) (some ⟨w10.heap.size, 0, none⟩) 1 1 ([(⟨#[1]⟩ : ByteArray) ++ X ++ Y].flatMap sval) rfl (fun h => by cases h) rfl (new_strA w10 _) (sval_one _) (by unfold maxLen; omega) (by omega) (Nat.le_trans (Nat.le_trans hs hgr10.size) (Nat.le_of_lt (by simp))) ?_; intro v11 w11 hown11 hgr11) | (go_at_call 66; refine (CSu _).mono ?_; rintro e w12 ⟨rfl, hb12⟩; have y10 := grown_atC hgr10 y9 (fun e => by have := (hoa.lt _ (show va.ownBlock = some w.heap.size from e.symm)).1; omega); have y10a := (heap_alloc_old w10 (.cells #[.string ((⟨#[1]⟩ : ByteArray) ++ X ++ Y)] 9) (Array.getElem?_eq_some_iff.1 y10).1).trans y10; have y11 := grown_atC hgr11 y10a (fun e => by have := (hown10.lt _ (show v10.ownBlock = some w.heap.size from e.symm)).1; omega); have y12 := cells_of y11 hb12 (Array.getElem?_eq_some_iff.1 y11).1) | (refine wpList_storeRowTo (Z := hrow (nodeF T1.1 T2.1)) rfl (.tmp 3) (.tmp 50) 25 rfl (by rw [t3]; kernel_rfl) rfl (by rfl) y12 (by rw [t3]; rfl) t3o ?_))
    have hbF : Below w.heap.size w w12 := (((hbel.trans ((below_grown hoa hgr10 hs).mono (by omega))).alloc (Nat.le_trans hbel.size hgr10.size) _).trans ((below_grown (hown10.alloc _) hgr11 (Nat.le_trans (Nat.le_trans hs hgr10.size) (Nat.le_of_lt (by simp)))).mono (by omega))).trans (hb12.mono (by have h1 := hbel.size; have h2 := hgr10.size; have h3 := hgr11.size; simp at h3; omega))
    have hown12 := own_far (w' := w12.setRow w.heap.size (hrow (nodeF T1.1 T2.1))) (own_keptH hown11 hb12) (fun j h1 _ => setRow_other _ _ _ _ (by omega))
    have hrd := run_loadVar_row (P := Tryd.prog) _ _ 25 25 _ (0, 0) _ (setRow_heap _ _ _ _ _ _ y12) Tryd.underlying25 rfl (by rw [t3]; kernel_rfl)
    refine bodyPost_ret (v := .tuple #[v11, .agg (hrow (nodeF T1.1 T2.1))]) ?_ rfl ?_
    · simp [results, Tryd.results96, asAddr, Act.put, hrd]
      try rfl
    refine ⟨v11, by rw [HT.out], ?_, below_setRow hbF (Nat.le_refl _) _⟩
    rw [HS.out, List.flatMap_append, List.flatMap_append, List.length_append, List.length_append]
    exact own_lower hown12 (by omega)
end Go.Proofs.YtfikbaoiialfeaaDoor
namespace Go.Proofs.YtfikbaoiialfeaaDoor
open Go.RowKit
attribute [local go_sem] strV
set_option linter.unusedVariables false
theorem own_setO {w : World} {base : Nat} {e T : TypeId} {size n : Nat} {v : Value} {xs : List Value} (h : w.ownsRow base e size v n xs) {g : Nat} {cs cur : Array Value} {fz : Nat × Nat} (hg : w.heap[g]? = some (.cells cur T fz)) (hT : T ≠ e) : (w.setRow g cs).ownsRow base e size v n xs := by
  refine ⟨h.1, ?_⟩
  rcases h.2 with hn | ⟨g9, cap, cur9, rfl, hb, hgg, rest⟩
  · exact .inl hn
  · refine .inr ⟨g9, cap, cur9, rfl, hb, ?_, rest⟩
    rw [setRow_other _ _ _ _ (fun h9 => by subst h9; rw [hg] at hgg; cases hgg; exact hT rfl)]
    exact hgg
def Fact.strs (B : Nat) (S : List ByteArray) : Fact := ⟨fun v w => w.ownsRow B 9 1 v S.length (S.flatMap sval), fun _ _ _ h hb => own_keptH h hb⟩
def Fact.wayT (B : Nat) (S : List ByteArray) (q : H32) : Fact := ⟨fun x w => ∃ v, x = .tuple #[v, .agg (hrow q.1)] ∧ w.ownsRow B 9 1 v S.length (S.flatMap sval), fun _ _ _ ⟨v, h1, h2⟩ hb => ⟨v, h1, own_keptH h2 hb⟩⟩
theorem wayT_one {n : Nat} (h : n < 2) (i : Nat) (x : H32) (w : List H32) : wayT n i x w = [] := by rw [wayT, dif_neg (by omega)]
theorem wayT_len : ∀ (n i : Nat) (x : H32) (w : List H32), i < n → (wayT n i x w).length = deepN n i := by
  intro n
  induction n using Nat.strongRecOn with
  | _ n ih =>
  intro i x w hi
  rcases Nat.lt_or_ge n 2 with h | h
  · rw [wayT_one h, deepN_small h]; rfl
  · by_cases hh : i < halfN n
    · rw [wayT_left h hh, deepN_left h hh, List.length_append, ih _ (halfN_lt h) _ _ _ hh, List.length_singleton]; omega
    · have := halfN_pos n
      rw [wayT_right h hh, deepN_right h hh, List.length_append, ih _ (by omega) _ _ _ (by omega), List.length_singleton]; omega
def WayTPost (w : World) (n i : Nat) (z : H32) (wy : List H32) (e : Ending) (w' : World) : Prop := ∃ v, e = .returned (.tuple #[v, .agg (hrow (foldH n i z wy).1)]) ∧ w'.ownsRow w.heap.size 9 1 v (strsB (wayT n i z wy)).length ((strsB (wayT n i z wy)).flatMap sval) ∧ Below w.heap.size w w'
set_option maxRecDepth 100000 in
set_option maxHeartbeats 12800000 in
theorem wayT_any : ∀ (n i : Nat) (z : H32) (wy : List H32) (a : Option Addr) (k cap : Nat) (w : World), i < n → n ≤ 1073741824 → wy.length = deepN n i → wy.length = k → k ≤ cap → cap ≤ maxLen → RowAt w a (wy.flatMap H32.cells) →
    Calls Tryd.prog 97 #[.int .i64 n, .int .i64 i, .agg (hrow z.1), .slice a k cap] w (WayTPost w n i z wy) := by
  intro n
  induction n using Nat.strongRecOn with
  | _ n ih =>
  intro i z wy a k cap w hi hn3 hd hk hcap hcm hr
  have hq : (hrow z.1).size = 32 := by rw [hrow_size]; exact z.2
  have hqo := hrow_one z.1
  have g0 := al2_0 w (.cells (hrow z.1) 25) (.cells #[Value.int .u8 0, Value.int .u8 0, Value.int .u8 0, Value.int .u8 0, Value.int .u8 0, Value.int .u8 0, Value.int .u8 0, Value.int .u8 0, Value.int .u8 0, Value.int .u8 0, Value.int .u8 0, Value.int .u8 0, Value.int .u8 0, Value.int .u8 0, Value.int .u8 0, Value.int .u8 0, Value.int .u8 0, Value.int .u8 0, Value.int .u8 0, Value.int .u8 0, Value.int .u8 0, Value.int .u8 0, Value.int .u8 0, Value.int .u8 0, Value.int .u8 0, Value.int .u8 0, Value.int .u8 0, Value.int .u8 0, Value.int .u8 0, Value.int .u8 0, Value.int .u8 0, Value.int .u8 0] 25)
  have g9 := al2_1 w (.cells (hrow z.1) 25) (.cells #[Value.int .u8 0, Value.int .u8 0, Value.int .u8 0, Value.int .u8 0, Value.int .u8 0, Value.int .u8 0, Value.int .u8 0, Value.int .u8 0, Value.int .u8 0, Value.int .u8 0, Value.int .u8 0, Value.int .u8 0, Value.int .u8 0, Value.int .u8 0, Value.int .u8 0, Value.int .u8 0, Value.int .u8 0, Value.int .u8 0, Value.int .u8 0, Value.int .u8 0, Value.int .u8 0, Value.int .u8 0, Value.int .u8 0, Value.int .u8 0, Value.int .u8 0, Value.int .u8 0, Value.int .u8 0, Value.int .u8 0, Value.int .u8 0, Value.int .u8 0, Value.int .u8 0, Value.int .u8 0] 25)
  have hbA := al2_below w (.cells (hrow z.1) 25) (.cells #[Value.int .u8 0, Value.int .u8 0, Value.int .u8 0, Value.int .u8 0, Value.int .u8 0, Value.int .u8 0, Value.int .u8 0, Value.int .u8 0, Value.int .u8 0, Value.int .u8 0, Value.int .u8 0, Value.int .u8 0, Value.int .u8 0, Value.int .u8 0, Value.int .u8 0, Value.int .u8 0, Value.int .u8 0, Value.int .u8 0, Value.int .u8 0, Value.int .u8 0, Value.int .u8 0, Value.int .u8 0, Value.int .u8 0, Value.int .u8 0, Value.int .u8 0, Value.int .u8 0, Value.int .u8 0, Value.int .u8 0, Value.int .u8 0, Value.int .u8 0, Value.int .u8 0, Value.int .u8 0] 25)
  unfold WayTPost
  unfold WayTPost at ih
  rcases Nat.lt_or_ge n 2 with hn2 | hn2
  · obtain rfl : n = 1 := by omega
    obtain rfl : i = 0 := by omega
    have HR : Hid ((foldH 1 0 z wy).1 = z.1) := Lib.hid (by rw [foldH_one (by omega)])
    have hT0 : strsB (wayT 1 0 z wy) = [] := by rw [wayT_one (by omega)]; rfl
    simp only [hT0]
    clear ih hT0
    go_enter Tryd.func97, Tryd.ntmps97
    go_upto_region 1 with fail
    refine wp_nameE _ (fun W1 hX => ?_)
    have y0 : W1.heap[w.heap.size]? = some (.cells (hrow z.1) 25 (0, 0)) := by rw [hX]; exact g0
    have y9 : W1.heap[w.heap.size + 1]? = some (.cells #[Value.int .u8 0, Value.int .u8 0, Value.int .u8 0, Value.int .u8 0, Value.int .u8 0, Value.int .u8 0, Value.int .u8 0, Value.int .u8 0, Value.int .u8 0, Value.int .u8 0, Value.int .u8 0, Value.int .u8 0, Value.int .u8 0, Value.int .u8 0, Value.int .u8 0, Value.int .u8 0, Value.int .u8 0, Value.int .u8 0, Value.int .u8 0, Value.int .u8 0, Value.int .u8 0, Value.int .u8 0, Value.int .u8 0, Value.int .u8 0, Value.int .u8 0, Value.int .u8 0, Value.int .u8 0, Value.int .u8 0, Value.int .u8 0, Value.int .u8 0, Value.int .u8 0, Value.int .u8 0] 25 (0, 0)) := by rw [hX]; exact g9
    have hbel : Below w.heap.size w W1 := by rw [hX]; exact hbA
    have hsz1 : W1.heap.size = w.heap.size + 2 := by rw [hX]; show ((w.heap.push _).push _).size = _; rw [Array.size_push, Array.size_push]
    clear hX g0 g9 hbA
    have hy0 : w.heap.size < W1.heap.size := (Array.getElem?_eq_some_iff.1 y0).1
    have hy9 : w.heap.size + 1 < W1.heap.size := (Array.getElem?_eq_some_iff.1 y9).1
    go_upto_region 2 with fail
    refine wp_region_facts_tail 2 rfl [Fact.eq (.agg (hrow z.1)), Fact.eq (.slice none 0 0)] (by kernel_rfl) (by kernel_rfl) (by kernel_rfl) (by kernel_rfl) (by kernel_rfl) (fun x => by simp only [List.take_succ_cons, List.take_zero, fillFrom, Act.put, List.setIfInBounds_toArray, List.set_cons_succ, List.set_cons_zero]; rfl) ?_ ?_
    · refine ⟨?_, ?_, trivial⟩
      · intro x w' hbw hd
        clear hd
        have hrg := hrow_range (cells_of y0 hbw hy0)
        go_wp2_with (first | (refine wpList_load_mid rfl 25 (.tmp 6) rfl w.heap.size 0 rfl z.cells _ hrg Tryd.underlying25 rfl (hash_info z) ?_; rw [H32.row]))
        exact frPost_mk rfl (by repeat (first | assumption | exact Below.refl _ _ | refine bch ?_ (by assumption) | refine Below.alloc ?_ (by simp) _)) rfl
      · intro x w' hbw hd
        clear hd
        go_wp2_with fail
        exact frPost_mk rfl (by repeat (first | assumption | exact Below.refl _ _ | refine bch ?_ (by assumption) | refine Below.alloc ?_ (by simp) _)) rfl
    · intro x w' hbw hall
      have hx0 : x 0 = .agg (hrow z.1) := hall 0 (by decide)
      have hx1 : x 1 = .slice none 0 0 := hall 1 (by decide)
      clear hall
      have y9 := cells_of y9 hbw hy9
      have hbel := hbel.trans (hbw.mono hbel.size)
      simp only [hx0, hx1, List.drop_succ_cons, List.drop_zero]
      go_wp2_with (refine wpList_storeRowTo (Z := hrow z.1) rfl (.tmp 9) (.tmp 25) 25 rfl (by rw [hq]; kernel_rfl) rfl (by rfl) y9 (by rw [hq]; rfl) hqo ?_)
      have hrd := run_loadVar_row (P := Tryd.prog) _ _ 25 25 _ (0, 0) _ (setRow_heap _ _ _ _ _ _ y9) Tryd.underlying25 rfl (by rw [hq]; kernel_rfl)
      refine bodyPost_ret (v := .tuple #[.slice none 0 0, .agg (hrow z.1)]) ?_ rfl ?_
      · simp [results, Tryd.results97, asAddr, Act.put, hrd]
        try rfl
      exact ⟨_, by rw [HR.out], ⟨rfl, .inl ⟨rfl, rfl⟩⟩, below_setRow hbel (by omega) _⟩
  have d2 : decide ((n : Int) ≤ 1) = false := decide_eq_false (by omega)
  have d2n : decide (n ≤ 1) = false := decide_eq_false (by omega)
  have hk1 : 1 ≤ k := by
    rw [← hk, hd]
    by_cases hh : i < halfN n
    · rw [deepN_left hn2 hh]; omega
    · rw [deepN_right hn2 hh]; omega
  have d3 : ((k : Int) == 0) = false := beq_eq_false_iff_ne.2 (by omega)
  obtain ⟨wp, q, rfl⟩ : ∃ wp q, wy = wp ++ [q] := by
    rcases List.eq_nil_or_concat wy with h | ⟨l, b, h⟩
    · rw [h] at hk; simp at hk; omega
    · exact ⟨l, b, by rw [h, List.concat_eq_append]⟩
  rw [List.length_append, List.length_singleton] at hk hd
  obtain ⟨kk, hkk⟩ : ∃ kk, wp.length = kk := ⟨_, rfl⟩
  have hk30 := deepN_30 (n := n) (i := i) hn3
  have hrp : RowAt w a (wp.flatMap H32.cells) := by
    have := hs_take hr kk
    rw [List.take_append_of_le_length (by omega), List.take_of_length_le (by omega)] at this
    exact this
  obtain ⟨b, off, rfl, _, _⟩ := hs_at hr (k := 0) (by simp)
  have hr0 := hr
  have CH := fun W : World => refHalfN_any n W hn2 hn3
  have hlt := halfN_lt hn2
  have hpos := halfN_pos n
  have n0 : (0 : Int) ≤ (kk : Int) := by omega
  have n1 : (1 : Int) ≤ (k : Int) := by omega
  have n1' : (k : Int) ≤ 1000 := by omega
  have n2 : (kk : Int) ≤ (cap : Int) := by omega
  have n3 : (kk : Int) ≤ (k : Int) := by omega
  have n3' : (kk : Int) < (k : Int) := by omega
  have n4 : (k : Int) ≤ (cap : Int) := by omega
  have n5 : ((kk : Nat) : Int).toNat = kk := by omega
  have n6 : kk ≤ cap := by omega
  have n7 : kk ≤ k := by omega
  have n8 : kk < k := by omega
  obtain ⟨i0, ii, hz0, hz1, hz2⟩ := info_parts Tryd.infoSt
  have hqq : (hrow q.1).size = 32 := by rw [hrow_size]; exact q.2
  by_cases hh : i < halfN n
  · have hfl := foldH_left (n := n) (i := i) hn2 hh z (wp ++ [q])
    have hwl := wayT_left (n := n) (i := i) hn2 hh z (wp ++ [q])
    have hdn := deepN_left hn2 hh
    rw [List.dropLast_concat, List.getLastD_concat] at hfl hwl
    have hlen := wayT_len (halfN n) i z wp hh
    have IH := fun W (hb : Below w.heap.size w W) => ih (halfN n) hlt i z wp (some ⟨b, off, none⟩) kk cap W hh (by omega) (by omega) hkk (by omega) hcm (hrp.below hb)
    obtain ⟨h, hhh⟩ : ∃ h, halfN n = h := ⟨_, rfl⟩
    simp only [hhh] at hfl hwl CH IH hh hlt hpos hlen
    have hdp := deepN_30 (n := h) (i := i) (by omega)
    obtain ⟨FX, hFX⟩ : ∃ F, foldH h i z wp = F := ⟨_, rfl⟩
    obtain ⟨TT, hTT⟩ : ∃ F, wayT h i z wp = F := ⟨_, rfl⟩
    simp only [hFX, hTT] at hfl hwl IH hlen
    have dd : decide ((i : Int) < (h : Int)) = true := decide_eq_true (by omega)
    have ddn : decide (i < h) = true := decide_eq_true hh
    have htt : strB (nodeT FX q) = (⟨#[1]⟩ : ByteArray) ++ strB FX.1 ++ strB q.1 := by rw [show (⟨#[1]⟩ : ByteArray) = strB [1] from rfl, strB_app, strB_app]; rfl
    have CX := fun W => refText_any W FX.1 FX.2
    have CY := fun W => refText_any W q.1 q.2
    have CSu := fun W => refSum_any (strB (nodeT FX q)) W (by rw [strB_size]; unfold nodeT; simp [FX.2, q.2])
    rw [strB_data] at CSu
    have hsum : shaF (nodeT FX q) = nodeF FX.1 q.1 := rfl
    rw [hsum] at CSu
    have hXs : (strB FX.1).size = 32 := by rw [strB_size]; exact FX.2
    have hYs : (strB q.1).size = 32 := by rw [strB_size]; exact q.2
    rw [show (⟨FX.1.toArray⟩ : ByteArray) = strB FX.1 from rfl] at CX
    rw [show (⟨q.1.toArray⟩ : ByteArray) = strB q.1 from rfl] at CY
    obtain ⟨X, hX9⟩ : ∃ X, strB FX.1 = X := ⟨_, rfl⟩
    obtain ⟨Y, hY9⟩ : ∃ Y, strB q.1 = Y := ⟨_, rfl⟩
    simp only [hX9] at CX hXs htt
    simp only [hY9] at CY hYs htt
    rw [htt] at CSu
    have h1s : (⟨#[1]⟩ : ByteArray).size = 1 := rfl
    have hcat1 : ¬ 9223372036854775807 < (⟨#[1]⟩ : ByteArray).size + X.size := by omega
    have hcat2 : ¬ 9223372036854775807 < ((⟨#[1]⟩ : ByteArray) ++ X).size + Y.size := by rw [ByteArray.size_append]; omega
    have hcat3 : ¬ 9223372036854775807 < 1 + X.size := by omega
    have hcat4 : ¬ 9223372036854775807 < 1 + X.size + Y.size := by omega
    have hcat5 : ¬ 9223372036854775807 < (⟨#[1]⟩ : ByteArray).size + X.size + Y.size := by omega
    have HR : Hid ((foldH n i z (wp ++ [q])).1 = nodeF FX.1 q.1) := Lib.hid (by rw [hfl]; rfl)
    have HS : Hid (strsB (wayT n i z (wp ++ [q])) = strsB TT ++ [(⟨#[1]⟩ : ByteArray) ++ X ++ Y]) := Lib.hid (by rw [hwl, strsB_app, ← htt]; rfl)
    have LT := strsB_len TT
    obtain ⟨PS, hPS⟩ : ∃ P, strsB TT = P := ⟨_, rfl⟩
    simp only [hPS] at IH HS LT
    have hlp : PS.length ≤ 1000 := by omega
    have tf : (hrow FX.1).size = 32 := by rw [hrow_size]; exact FX.2
    have tfo := hrow_one FX.1
    have tn : (hrow (nodeF FX.1 q.1)).size = 32 := by rw [hrow_size]; exact nodeF_len _ _
    have tno := hrow_one (nodeF FX.1 q.1)
    clear hhh hFX hTT hfl hwl ih hdn hX9 hY9 htt hXs hYs hsum hPS LT h1s hlen hdp
    go_enter Tryd.func97, Tryd.ntmps97
    go_upto_region 1 with fail
    refine wp_nameE _ (fun W1 hX => ?_)
    have y0 : W1.heap[w.heap.size]? = some (.cells (hrow z.1) 25 (0, 0)) := by rw [hX]; exact g0
    have y9 : W1.heap[w.heap.size + 1]? = some (.cells #[Value.int .u8 0, Value.int .u8 0, Value.int .u8 0, Value.int .u8 0, Value.int .u8 0, Value.int .u8 0, Value.int .u8 0, Value.int .u8 0, Value.int .u8 0, Value.int .u8 0, Value.int .u8 0, Value.int .u8 0, Value.int .u8 0, Value.int .u8 0, Value.int .u8 0, Value.int .u8 0, Value.int .u8 0, Value.int .u8 0, Value.int .u8 0, Value.int .u8 0, Value.int .u8 0, Value.int .u8 0, Value.int .u8 0, Value.int .u8 0, Value.int .u8 0, Value.int .u8 0, Value.int .u8 0, Value.int .u8 0, Value.int .u8 0, Value.int .u8 0, Value.int .u8 0, Value.int .u8 0] 25 (0, 0)) := by rw [hX]; exact g9
    have hbel : Below w.heap.size w W1 := by rw [hX]; exact hbA
    have hsz1 : W1.heap.size = w.heap.size + 2 := by rw [hX]; show ((w.heap.push _).push _).size = _; rw [Array.size_push, Array.size_push]
    clear hX g0 g9 hbA
    have hy0 : w.heap.size < W1.heap.size := (Array.getElem?_eq_some_iff.1 y0).1
    have hy9 : w.heap.size + 1 < W1.heap.size := (Array.getElem?_eq_some_iff.1 y9).1
    have HSZ := Lib.hid hsz1
    clear hsz1
    have hsub : (k : Int) - 1 = ((kk : Nat) : Int) := by omega
    have hs : W1.heap.size ≤ W1.heap.size := Nat.le_refl _
    go_upto_region 5 with (go_at_call 19; refine (CH _).mono ?_; rintro e w2 ⟨rfl, hb⟩; have y0 := cells_of y0 hb hy0; have y9 := cells_of y9 hb hy9; have hy0 := Nat.lt_of_lt_of_le hy0 hb.size; have hy9 := Nat.lt_of_lt_of_le hy9 hb.size; have hbel := hbel.trans (hb.mono hbel.size); have hs := Nat.le_trans hs hb.size; clear hb)
    obtain ⟨W5, hW5⟩ : ∃ W, w2 = W := ⟨_, rfl⟩
    rw [hW5] at y0 y9 hy0 hy9 hbel hs
    simp only [hW5]
    clear hW5 hsub CH
    refine wp_region_facts_tail 12 rfl [Fact.eq (.int .i64 (h : Int)), Fact.eq (.int .i64 (i : Int)), Fact.eq (.agg (hrow z.1)), Fact.eq (.slice (some ⟨b, off, none⟩) k cap), Fact.eq (.int .i64 (kk : Int)), Fact.eq (.slice (some ⟨b, off, none⟩) kk cap), (Fact.wayT W1.heap.size PS FX), (Fact.wayT W1.heap.size PS FX), (Fact.strs W1.heap.size PS), Fact.eq (.agg (hrow FX.1)), Fact.cell W5.heap.size, (Fact.strs W1.heap.size PS)] (by kernel_rfl) (by kernel_rfl) (by kernel_rfl) (by kernel_rfl) (by kernel_rfl) (fun x => by simp only [List.take_succ_cons, List.take_zero, fillFrom, Act.put, List.setIfInBounds_toArray, List.set_cons_succ, List.set_cons_zero]; rfl) ?_ ?_
    · refine ⟨?_, ?_, ?_, ?_, ?_, ?_, ?_, ?_, ?_, ?_, ?_, ?_, trivial⟩
      · intro x w' hbw hd
        clear hd
        go_wp2_with fail
        exact frPost_mk rfl (by repeat (first | assumption | exact Below.refl _ _ | refine bch ?_ (by assumption) | refine Below.alloc ?_ (by simp) _)) rfl
      · intro x w' hbw hd
        clear hd
        go_wp2_with fail
        exact frPost_mk rfl (by repeat (first | assumption | exact Below.refl _ _ | refine bch ?_ (by assumption) | refine Below.alloc ?_ (by simp) _)) rfl
      · intro x w' hbw hd
        clear hd
        have hrg := hrow_range (cells_of y0 hbw hy0)
        go_wp2_with (first | (refine wpList_load_mid rfl 25 (.tmp 6) rfl w.heap.size 0 rfl z.cells _ hrg Tryd.underlying25 rfl (hash_info z) ?_; rw [H32.row]))
        exact frPost_mk rfl (by repeat (first | assumption | exact Below.refl _ _ | refine bch ?_ (by assumption) | refine Below.alloc ?_ (by simp) _)) rfl
      · intro x w' hbw hd
        clear hd
        go_wp2_with fail
        exact frPost_mk rfl (by repeat (first | assumption | exact Below.refl _ _ | refine bch ?_ (by assumption) | refine Below.alloc ?_ (by simp) _)) rfl
      · intro x w' hbw hd
        clear hd
        go_wp2_with fail
        exact frPost_mk rfl (by repeat (first | assumption | exact Below.refl _ _ | refine bch ?_ (by assumption) | refine Below.alloc ?_ (by simp) _)) rfl
      · intro x w' hbw hd
        have d3 : x 3 = .slice (some ⟨b, off, none⟩) k cap := hd 3 rfl
        have d4 : x 4 = .int .i64 (kk : Int) := hd 4 rfl
        clear hd
        go_wp2_with fail
        exact frPost_mk rfl (by repeat (first | assumption | exact Below.refl _ _ | refine bch ?_ (by assumption) | refine Below.alloc ?_ (by simp) _)) rfl
      · intro x w' hbw hd
        have d0 : x 0 = .int .i64 (h : Int) := hd 0 rfl
        have d1 : x 1 = .int .i64 (i : Int) := hd 1 rfl
        have d2 : x 2 = .agg (hrow z.1) := hd 2 rfl
        have d5 : x 5 = .slice (some ⟨b, off, none⟩) kk cap := hd 5 rfl
        clear hd
        have CC := IH w' (hbel.trans (hbw.mono hbel.size))
        go_wp2_with (first | (go_at_call 97; refine (CC).mono ?_; rintro e wx ⟨vx, rfl, hox, hbx⟩))
        refine frPost_mk rfl (by repeat (first | assumption | exact Below.refl _ _ | refine bch ?_ (by assumption) | refine Below.alloc ?_ (by simp) _)) ?_; exact ⟨vx, rfl, own_lower hox (Nat.le_trans hs hbw.size)⟩
      · intro x w' hbw hd
        obtain ⟨v6, d6, o6⟩ := (show (Fact.wayT W1.heap.size PS FX).holds (x 6) w' from hd 6 rfl)
        clear hd
        go_wp2_with fail
        exact frPost_mk rfl (by repeat (first | assumption | exact Below.refl _ _ | refine bch ?_ (by assumption) | refine Below.alloc ?_ (by simp) _)) ⟨_, rfl, o6⟩
      · intro x w' hbw hd
        obtain ⟨v7, d7, o7⟩ := (show (Fact.wayT W1.heap.size PS FX).holds (x 7) w' from hd 7 rfl)
        clear hd
        go_wp2_with fail
        exact frPost_mk rfl (by repeat (first | assumption | exact Below.refl _ _ | refine bch ?_ (by assumption) | refine Below.alloc ?_ (by simp) _)) o7
      · intro x w' hbw hd
        obtain ⟨v7, d7, o7⟩ := (show (Fact.wayT W1.heap.size PS FX).holds (x 7) w' from hd 7 rfl)
        clear hd
        go_wp2_with fail
        exact frPost_mk rfl (by repeat (first | assumption | exact Below.refl _ _ | refine bch ?_ (by assumption) | refine Below.alloc ?_ (by simp) _)) rfl
      · intro x w' hbw hd
        clear hd
        go_wp2_with fail
        refine frPost_mk rfl (by repeat (first | assumption | exact Below.refl _ _ | refine bch ?_ (by assumption) | refine Below.alloc ?_ (by simp) _)) ?_; show (Fact.cell W5.heap.size).holds _ _; exact ⟨_, rfl, hbw.size, heap_pushF _ _ _⟩
      · intro x w' hbw hd
        have o8 : (Fact.strs W1.heap.size PS).holds (x 8) w' := hd 8 rfl
        clear hd
        go_wp2_with fail
        exact frPost_mk rfl (by repeat (first | assumption | exact Below.refl _ _ | refine bch ?_ (by assumption) | refine Below.alloc ?_ (by simp) _)) o8
    · intro x w' hbw hall
      have hxF : x 9 = .agg (hrow FX.1) := hall 9 (by decide)
      obtain ⟨g, hxc, hBg, hgz⟩ := (show (Fact.cell W5.heap.size).holds (x 10) w' from hall 10 (by decide))
      have hoa : w'.ownsRow W1.heap.size 9 1 (x 11) PS.length (PS.flatMap sval) := hall 11 (by decide)
      obtain ⟨va, hva⟩ : ∃ v, x 11 = v := ⟨_, rfl⟩
      rw [hva] at hoa
      clear hall
      simp only [hxF, hxc, hva, List.drop_succ_cons, List.drop_zero]
      have y9 := cells_of y9 hbw hy9
      have hy9 := Nat.lt_of_lt_of_le hy9 hbw.size
      have hbel := hbel.trans (hbw.mono hbel.size)
      have hs := Nat.le_trans hs hbw.size
      go_upto_region 6 with (refine wpList_storeRowTo (Z := hrow FX.1) rfl (.tmp 13) (.tmp 43) 25 rfl (by rw [tf]; kernel_rfl) rfl (by rfl) hgz (by rw [tf]; rfl) tfo ?_)
      refine wp_nameE _ (fun W6 hX => ?_)
      have hT : W6.heap[g]? = some (.cells (hrow FX.1) 25 (0, 0)) := by rw [hX]; exact setRow_heap _ _ _ _ _ _ hgz
      have y9 : W6.heap[w.heap.size + 1]? = some (.cells #[Value.int .u8 0, Value.int .u8 0, Value.int .u8 0, Value.int .u8 0, Value.int .u8 0, Value.int .u8 0, Value.int .u8 0, Value.int .u8 0, Value.int .u8 0, Value.int .u8 0, Value.int .u8 0, Value.int .u8 0, Value.int .u8 0, Value.int .u8 0, Value.int .u8 0, Value.int .u8 0, Value.int .u8 0, Value.int .u8 0, Value.int .u8 0, Value.int .u8 0, Value.int .u8 0, Value.int .u8 0, Value.int .u8 0, Value.int .u8 0, Value.int .u8 0, Value.int .u8 0, Value.int .u8 0, Value.int .u8 0, Value.int .u8 0, Value.int .u8 0, Value.int .u8 0, Value.int .u8 0] 25 (0, 0)) := by rw [hX, setRow_other _ _ _ _ (by omega)]; exact y9
      have hoa : W6.ownsRow W1.heap.size 9 1 va PS.length (PS.flatMap sval) := by rw [hX]; exact own_setO hoa hgz (by decide)
      have hbelX : Below W5.heap.size w' W6 := by rw [hX]; exact below_setRow (Below.refl _ _) (by omega) _
      have hbel : Below w.heap.size w W6 := hbel.trans (hbelX.mono (by omega))
      have hs : W1.heap.size ≤ W6.heap.size := Nat.le_trans hs hbelX.size
      have hr := hr0.below hbel
      have hTl : g < W6.heap.size := (Array.getElem?_eq_some_iff.1 hT).1
      have hy9 : w.heap.size + 1 < W6.heap.size := (Array.getElem?_eq_some_iff.1 y9).1
      clear hX hbelX hgz
      obtain ⟨b2, o2, he2, hb2, hrgq⟩ := hs_at hr (k := kk) (by simp; omega)
      simp only [Option.some.injEq, Addr.mk.injEq, and_true] at he2
      obtain ⟨rfl, rfl⟩ := he2
      rw [show (wp ++ [q])[kk]'(by simp; omega) = q by simp [← hkk]] at hrgq
      refine wp_region_facts [Fact.eq (.agg (hrow FX.1)), Fact.eq (.string X), Fact.eq (.string ((⟨#[1]⟩ : ByteArray) ++ X)), Fact.eq (.slice (some ⟨b, off, none⟩) k cap), Fact.eq (.int .i64 (kk : Int)), Fact.eq (.pointer (some ⟨b, off + kk * 32, none⟩)), Fact.eq (.agg (hrow q.1)), Fact.eq (.string Y), Fact.eq (.string ((⟨#[1]⟩ : ByteArray) ++ X ++ Y)), Fact.eq (.string ((⟨#[1]⟩ : ByteArray) ++ X ++ Y))] (by kernel_rfl) (by kernel_rfl) (by kernel_rfl) (by kernel_rfl) (fun x => by simp only [fillFrom, Act.put, List.setIfInBounds_toArray, List.set_cons_succ, List.set_cons_zero]; rfl) ?_ ?_
      · refine ⟨?_, ?_, ?_, ?_, ?_, ?_, ?_, ?_, ?_, ?_, trivial⟩
        · intro x w' hbw hd
          clear hd
          have hrg := hrow_range (cells_of hT hbw hTl)
          go_wp2_with (first | (refine wpList_load_mid rfl 25 (.tmp 13) rfl g 0 rfl FX.cells _ hrg Tryd.underlying25 rfl (hash_info FX) ?_; rw [H32.row]))
          exact frPost_mk rfl (by repeat (first | assumption | exact Below.refl _ _ | refine bch ?_ (by assumption) | refine Below.alloc ?_ (by simp) _)) rfl
        · intro x w' hbw hd
          have d0 : x 0 = .agg (hrow FX.1) := hd 0 rfl
          clear hd
          have CC := CX w'
          go_wp2_with (first | (go_at_call 69; refine (CC).mono ?_; rintro e wx ⟨rfl, hbx⟩))
          exact frPost_mk rfl (by repeat (first | assumption | exact Below.refl _ _ | refine bch ?_ (by assumption) | refine Below.alloc ?_ (by simp) _)) rfl
        · intro x w' hbw hd
          have d1 : x 1 = .string X := hd 1 rfl
          clear hd
          go_wp2_with fail
          exact frPost_mk rfl (by repeat (first | assumption | exact Below.refl _ _ | refine bch ?_ (by assumption) | refine Below.alloc ?_ (by simp) _)) rfl
        · intro x w' hbw hd
          clear hd
          go_wp2_with fail
          exact frPost_mk rfl (by repeat (first | assumption | exact Below.refl _ _ | refine bch ?_ (by assumption) | refine Below.alloc ?_ (by simp) _)) rfl
        · intro x w' hbw hd
          clear hd
          go_wp2_with fail
          exact frPost_mk rfl (by repeat (first | assumption | exact Below.refl _ _ | refine bch ?_ (by assumption) | refine Below.alloc ?_ (by simp) _)) rfl
        · intro x w' hbw hd
          have d3 : x 3 = .slice (some ⟨b, off, none⟩) k cap := hd 3 rfl
          have d4 : x 4 = .int .i64 (kk : Int) := hd 4 rfl
          clear hd
          go_wp2_with fail
          exact frPost_mk rfl (by repeat (first | assumption | exact Below.refl _ _ | refine bch ?_ (by assumption) | refine Below.alloc ?_ (by simp) _)) (by first | rfl | (show Value.pointer _ = Value.pointer _; simp))
        · intro x w' hbw hd
          have d5 : x 5 = .pointer (some ⟨b, off + kk * 32, none⟩) := hd 5 rfl
          clear hd
          have hrg : w'.rangeAt b (off + kk * 32) q.cells := fun j v hv => by rw [hbw.cell (p := ⟨b, off + kk * 32 + j, none⟩) hb2]; exact hrgq j v hv
          go_wp2_with (first | (refine wpList_load_mid rfl 25 (.tmp 49) rfl b (off + kk * 32) (by first | exact d5 | rfl) q.cells _ hrg Tryd.underlying25 rfl (hash_info q) ?_; rw [H32.row]))
          exact frPost_mk rfl (by repeat (first | assumption | exact Below.refl _ _ | refine bch ?_ (by assumption) | refine Below.alloc ?_ (by simp) _)) rfl
        · intro x w' hbw hd
          have d6 : x 6 = .agg (hrow q.1) := hd 6 rfl
          clear hd
          have CC := CY w'
          go_wp2_with (first | (go_at_call 69; refine (CC).mono ?_; rintro e wx ⟨rfl, hbx⟩))
          exact frPost_mk rfl (by repeat (first | assumption | exact Below.refl _ _ | refine bch ?_ (by assumption) | refine Below.alloc ?_ (by simp) _)) rfl
        · intro x w' hbw hd
          have d2 : x 2 = .string ((⟨#[1]⟩ : ByteArray) ++ X) := hd 2 rfl
          have d7 : x 7 = .string Y := hd 7 rfl
          clear hd
          go_wp2_with fail
          exact frPost_mk rfl (by repeat (first | assumption | exact Below.refl _ _ | refine bch ?_ (by assumption) | refine Below.alloc ?_ (by simp) _)) rfl
        · intro x w' hbw hd
          have d8 : x 8 = .string ((⟨#[1]⟩ : ByteArray) ++ X ++ Y) := hd 8 rfl
          clear hd
          go_wp2_with fail
          exact frPost_mk rfl (by repeat (first | assumption | exact Below.refl _ _ | refine bch ?_ (by assumption) | refine Below.alloc ?_ (by simp) _)) rfl
      intro x9 w9 hbw hall
      have hx9 : x9 9 = .string ((⟨#[1]⟩ : ByteArray) ++ X ++ Y) := hall 9 (by decide)
      clear hall
      simp only [hx9]
      have y9 := cells_of y9 hbw hy9
      have hbel := hbel.trans (hbw.mono hbel.size)
      have hs := Nat.le_trans hs hbw.size
      have hoa := own_keptH hoa hbw
      clear CX CY IH
      go_wp2_with (first | (at_builtin; refine wpList_append_ownA _ rfl (.tmp 53) (.tmp 55) 80 rfl W1.heap.size 9 i0 (.string ⟨#[]⟩) 1 16 Tryd.underlying80 ii hz0 hz1 hz2 rfl (by decide) _ _ _ rfl (hoa.alloc _) (some ⟨w9.heap.size, 0, none⟩) 1 1 ([(⟨#[1]⟩ : ByteArray) ++ X ++ Y].flatMap sval) rfl (fun h => by cases h) rfl (new_strA w9 _) (sval_one _) (by unfold maxLen; omega) (by omega) (Nat.le_trans hs (Nat.le_of_lt (by simp))) ?_; intro v11 w11 hown11 hgr11) | (go_at_call 66; refine (CSu _).mono ?_; rintro e w12 ⟨rfl, hb12⟩; have y10 := (heap_alloc_old w9 (.cells #[.string ((⟨#[1]⟩ : ByteArray) ++ X ++ Y)] 9) (Array.getElem?_eq_some_iff.1 y9).1).trans y9; have y11 := grown_atC hgr11 y10 (fun e => by have := (hoa.lt _ (show va.ownBlock = some (w.heap.size + 1) from e.symm)).1; have := HSZ.out; omega); have y12 := cells_of y11 hb12 (Array.getElem?_eq_some_iff.1 y11).1) | (refine wpList_storeRowTo (Z := hrow (nodeF FX.1 q.1)) rfl (.tmp 9) (.tmp 58) 25 rfl (by rw [tn]; kernel_rfl) rfl (by rfl) y12 (by rw [tn]; rfl) tno ?_))
      have hsz1 := HSZ.out
      have hbF : Below w.heap.size w w12 := ((hbel.alloc hbel.size _).trans ((below_grown (hoa.alloc _) hgr11 (Nat.le_trans hs (Nat.le_of_lt (by simp)))).mono (by omega))).trans (hb12.mono (by have h1 := hbel.size; have h3 := hgr11.size; simp at h3; omega))
      have hown12 := own_far (w' := w12.setRow (w.heap.size + 1) (hrow (nodeF FX.1 q.1))) (own_keptH hown11 hb12) (fun j h1 _ => setRow_other _ _ _ _ (by omega))
      have hrd := run_loadVar_row (P := Tryd.prog) _ _ 25 25 _ (0, 0) _ (setRow_heap _ _ _ _ _ _ y12) Tryd.underlying25 rfl (by rw [tn]; kernel_rfl)
      refine bodyPost_ret (v := .tuple #[v11, .agg (hrow (nodeF FX.1 q.1))]) ?_ rfl ?_
      · simp [results, Tryd.results97, asAddr, Act.put, hrd]
        try rfl
      refine ⟨v11, by rw [HR.out], ?_, below_setRow hbF (by omega) _⟩
      rw [HS.out, List.flatMap_append, List.length_append]
      exact own_lower hown12 (by omega)
  · have hfl := foldH_right (n := n) (i := i) hn2 hh z (wp ++ [q])
    have hwl := wayT_right (n := n) (i := i) hn2 hh z (wp ++ [q])
    have hdn := deepN_right hn2 hh
    rw [List.dropLast_concat, List.getLastD_concat] at hfl hwl
    have hlen := wayT_len (n - halfN n) (i - halfN n) z wp (by omega)
    have IH := fun W (hb : Below w.heap.size w W) => ih (n - halfN n) (by omega) (i - halfN n) z wp (some ⟨b, off, none⟩) kk cap W (by omega) (by omega) (by omega) hkk (by omega) hcm (hrp.below hb)
    obtain ⟨h, hhh⟩ : ∃ h, halfN n = h := ⟨_, rfl⟩
    simp only [hhh] at hfl hwl CH IH hh hlt hpos hlen
    obtain ⟨nh, hnh⟩ : ∃ x, n - h = x := ⟨_, rfl⟩
    obtain ⟨ih9, hih⟩ : ∃ x, i - h = x := ⟨_, rfl⟩
    simp only [hnh, hih] at hfl hwl IH hlen
    have hdp := deepN_30 (n := nh) (i := ih9) (by omega)
    obtain ⟨FX, hFX⟩ : ∃ F, foldH nh ih9 z wp = F := ⟨_, rfl⟩
    obtain ⟨TT, hTT⟩ : ∃ F, wayT nh ih9 z wp = F := ⟨_, rfl⟩
    simp only [hFX, hTT] at hfl hwl IH hlen
    have dd : decide ((i : Int) < (h : Int)) = false := decide_eq_false (by omega)
    have ddn : decide (i < h) = false := decide_eq_false hh
    have e1 : (n : Int) - (h : Int) = ((nh : Nat) : Int) := by omega
    have e2 : (i : Int) - (h : Int) = ((ih9 : Nat) : Int) := by omega
    have e3 : (0 : Int) ≤ (nh : Int) := by omega
    have e4 : (nh : Int) ≤ 1073741824 := by omega
    have e5 : (0 : Int) ≤ (ih9 : Int) := by omega
    have e6 : (ih9 : Int) ≤ 1073741824 := by omega
    have htt : strB (nodeT q FX) = (⟨#[1]⟩ : ByteArray) ++ strB q.1 ++ strB FX.1 := by rw [show (⟨#[1]⟩ : ByteArray) = strB [1] from rfl, strB_app, strB_app]; rfl
    have CX := fun W => refText_any W FX.1 FX.2
    have CY := fun W => refText_any W q.1 q.2
    have CSu := fun W => refSum_any (strB (nodeT q FX)) W (by rw [strB_size]; unfold nodeT; simp [FX.2, q.2])
    rw [strB_data] at CSu
    have hsum : shaF (nodeT q FX) = nodeF q.1 FX.1 := rfl
    rw [hsum] at CSu
    have hXs : (strB FX.1).size = 32 := by rw [strB_size]; exact FX.2
    have hYs : (strB q.1).size = 32 := by rw [strB_size]; exact q.2
    rw [show (⟨FX.1.toArray⟩ : ByteArray) = strB FX.1 from rfl] at CX
    rw [show (⟨q.1.toArray⟩ : ByteArray) = strB q.1 from rfl] at CY
    obtain ⟨X, hX9⟩ : ∃ X, strB FX.1 = X := ⟨_, rfl⟩
    obtain ⟨Y, hY9⟩ : ∃ Y, strB q.1 = Y := ⟨_, rfl⟩
    simp only [hX9] at CX hXs htt
    simp only [hY9] at CY hYs htt
    rw [htt] at CSu
    have h1s : (⟨#[1]⟩ : ByteArray).size = 1 := rfl
    have hcat1 : ¬ 9223372036854775807 < (⟨#[1]⟩ : ByteArray).size + Y.size := by omega
    have hcat2 : ¬ 9223372036854775807 < ((⟨#[1]⟩ : ByteArray) ++ Y).size + X.size := by rw [ByteArray.size_append]; omega
    have hcat3 : ¬ 9223372036854775807 < 1 + Y.size := by omega
    have hcat4 : ¬ 9223372036854775807 < 1 + Y.size + X.size := by omega
    have hcat5 : ¬ 9223372036854775807 < (⟨#[1]⟩ : ByteArray).size + Y.size + X.size := by omega
    have HR : Hid ((foldH n i z (wp ++ [q])).1 = nodeF q.1 FX.1) := Lib.hid (by rw [hfl]; rfl)
    have HS : Hid (strsB (wayT n i z (wp ++ [q])) = strsB TT ++ [(⟨#[1]⟩ : ByteArray) ++ Y ++ X]) := Lib.hid (by rw [hwl, strsB_app, ← htt]; rfl)
    have LT := strsB_len TT
    obtain ⟨PS, hPS⟩ : ∃ P, strsB TT = P := ⟨_, rfl⟩
    simp only [hPS] at IH HS LT
    have hlp : PS.length ≤ 1000 := by omega
    have tf : (hrow FX.1).size = 32 := by rw [hrow_size]; exact FX.2
    have tfo := hrow_one FX.1
    have tn : (hrow (nodeF q.1 FX.1)).size = 32 := by rw [hrow_size]; exact nodeF_len _ _
    have tno := hrow_one (nodeF q.1 FX.1)
    clear hhh hFX hTT hfl hwl ih hdn hX9 hY9 htt hXs hYs hsum hPS LT h1s hlen hdp
    go_enter Tryd.func97, Tryd.ntmps97
    go_upto_region 1 with fail
    refine wp_nameE _ (fun W1 hX => ?_)
    have y0 : W1.heap[w.heap.size]? = some (.cells (hrow z.1) 25 (0, 0)) := by rw [hX]; exact g0
    have y9 : W1.heap[w.heap.size + 1]? = some (.cells #[Value.int .u8 0, Value.int .u8 0, Value.int .u8 0, Value.int .u8 0, Value.int .u8 0, Value.int .u8 0, Value.int .u8 0, Value.int .u8 0, Value.int .u8 0, Value.int .u8 0, Value.int .u8 0, Value.int .u8 0, Value.int .u8 0, Value.int .u8 0, Value.int .u8 0, Value.int .u8 0, Value.int .u8 0, Value.int .u8 0, Value.int .u8 0, Value.int .u8 0, Value.int .u8 0, Value.int .u8 0, Value.int .u8 0, Value.int .u8 0, Value.int .u8 0, Value.int .u8 0, Value.int .u8 0, Value.int .u8 0, Value.int .u8 0, Value.int .u8 0, Value.int .u8 0, Value.int .u8 0] 25 (0, 0)) := by rw [hX]; exact g9
    have hbel : Below w.heap.size w W1 := by rw [hX]; exact hbA
    have hsz1 : W1.heap.size = w.heap.size + 2 := by rw [hX]; show ((w.heap.push _).push _).size = _; rw [Array.size_push, Array.size_push]
    clear hX g0 g9 hbA
    have hy0 : w.heap.size < W1.heap.size := (Array.getElem?_eq_some_iff.1 y0).1
    have hy9 : w.heap.size + 1 < W1.heap.size := (Array.getElem?_eq_some_iff.1 y9).1
    have HSZ := Lib.hid hsz1
    clear hsz1
    have hsub : (k : Int) - 1 = ((kk : Nat) : Int) := by omega
    have hs : W1.heap.size ≤ W1.heap.size := Nat.le_refl _
    go_upto_region 8 with (go_at_call 19; refine (CH _).mono ?_; rintro e w2 ⟨rfl, hb⟩; have y0 := cells_of y0 hb hy0; have y9 := cells_of y9 hb hy9; have hy0 := Nat.lt_of_lt_of_le hy0 hb.size; have hy9 := Nat.lt_of_lt_of_le hy9 hb.size; have hbel := hbel.trans (hb.mono hbel.size); have hs := Nat.le_trans hs hb.size; clear hb)
    obtain ⟨W5, hW5⟩ : ∃ W, w2 = W := ⟨_, rfl⟩
    rw [hW5] at y0 y9 hy0 hy9 hbel hs
    simp only [hW5]
    clear hW5 hsub CH
    refine wp_region_facts_tail 16 rfl [Fact.eq (.int .i64 (n : Int)), Fact.eq (.int .i64 (h : Int)), Fact.eq (.int .i64 (nh : Int)), Fact.eq (.int .i64 (i : Int)), Fact.eq (.int .i64 (h : Int)), Fact.eq (.int .i64 (ih9 : Int)), Fact.eq (.agg (hrow z.1)), Fact.eq (.slice (some ⟨b, off, none⟩) k cap), Fact.eq (.int .i64 (kk : Int)), Fact.eq (.slice (some ⟨b, off, none⟩) kk cap), (Fact.wayT W1.heap.size PS FX), (Fact.wayT W1.heap.size PS FX), (Fact.strs W1.heap.size PS), Fact.eq (.agg (hrow FX.1)), Fact.cell W5.heap.size, (Fact.strs W1.heap.size PS)] (by kernel_rfl) (by kernel_rfl) (by kernel_rfl) (by kernel_rfl) (by kernel_rfl) (fun x => by simp only [List.take_succ_cons, List.take_zero, fillFrom, Act.put, List.setIfInBounds_toArray, List.set_cons_succ, List.set_cons_zero]; rfl) ?_ ?_
    · refine ⟨?_, ?_, ?_, ?_, ?_, ?_, ?_, ?_, ?_, ?_, ?_, ?_, ?_, ?_, ?_, ?_, trivial⟩
      · intro x w' hbw hd
        clear hd
        go_wp2_with fail
        exact frPost_mk rfl (by repeat (first | assumption | exact Below.refl _ _ | refine bch ?_ (by assumption) | refine Below.alloc ?_ (by simp) _)) rfl
      · intro x w' hbw hd
        clear hd
        go_wp2_with fail
        exact frPost_mk rfl (by repeat (first | assumption | exact Below.refl _ _ | refine bch ?_ (by assumption) | refine Below.alloc ?_ (by simp) _)) rfl
      · intro x w' hbw hd
        have d0 : x 0 = .int .i64 (n : Int) := hd 0 rfl
        have d1 : x 1 = .int .i64 (h : Int) := hd 1 rfl
        clear hd
        go_wp2_with fail
        exact frPost_mk rfl (by repeat (first | assumption | exact Below.refl _ _ | refine bch ?_ (by assumption) | refine Below.alloc ?_ (by simp) _)) rfl
      · intro x w' hbw hd
        clear hd
        go_wp2_with fail
        exact frPost_mk rfl (by repeat (first | assumption | exact Below.refl _ _ | refine bch ?_ (by assumption) | refine Below.alloc ?_ (by simp) _)) rfl
      · intro x w' hbw hd
        clear hd
        go_wp2_with fail
        exact frPost_mk rfl (by repeat (first | assumption | exact Below.refl _ _ | refine bch ?_ (by assumption) | refine Below.alloc ?_ (by simp) _)) rfl
      · intro x w' hbw hd
        have d3 : x 3 = .int .i64 (i : Int) := hd 3 rfl
        have d4 : x 4 = .int .i64 (h : Int) := hd 4 rfl
        clear hd
        go_wp2_with fail
        exact frPost_mk rfl (by repeat (first | assumption | exact Below.refl _ _ | refine bch ?_ (by assumption) | refine Below.alloc ?_ (by simp) _)) rfl
      · intro x w' hbw hd
        clear hd
        have hrg := hrow_range (cells_of y0 hbw hy0)
        go_wp2_with (first | (refine wpList_load_mid rfl 25 (.tmp 6) rfl w.heap.size 0 rfl z.cells _ hrg Tryd.underlying25 rfl (hash_info z) ?_; rw [H32.row]))
        exact frPost_mk rfl (by repeat (first | assumption | exact Below.refl _ _ | refine bch ?_ (by assumption) | refine Below.alloc ?_ (by simp) _)) rfl
      · intro x w' hbw hd
        clear hd
        go_wp2_with fail
        exact frPost_mk rfl (by repeat (first | assumption | exact Below.refl _ _ | refine bch ?_ (by assumption) | refine Below.alloc ?_ (by simp) _)) rfl
      · intro x w' hbw hd
        clear hd
        go_wp2_with fail
        exact frPost_mk rfl (by repeat (first | assumption | exact Below.refl _ _ | refine bch ?_ (by assumption) | refine Below.alloc ?_ (by simp) _)) rfl
      · intro x w' hbw hd
        have d7 : x 7 = .slice (some ⟨b, off, none⟩) k cap := hd 7 rfl
        have d8 : x 8 = .int .i64 (kk : Int) := hd 8 rfl
        clear hd
        go_wp2_with fail
        exact frPost_mk rfl (by repeat (first | assumption | exact Below.refl _ _ | refine bch ?_ (by assumption) | refine Below.alloc ?_ (by simp) _)) rfl
      · intro x w' hbw hd
        have d2 : x 2 = .int .i64 (nh : Int) := hd 2 rfl
        have d5 : x 5 = .int .i64 (ih9 : Int) := hd 5 rfl
        have d6 : x 6 = .agg (hrow z.1) := hd 6 rfl
        have d9 : x 9 = .slice (some ⟨b, off, none⟩) kk cap := hd 9 rfl
        clear hd
        have CC := IH w' (hbel.trans (hbw.mono hbel.size))
        go_wp2_with (first | (go_at_call 97; refine (CC).mono ?_; rintro e wx ⟨vx, rfl, hox, hbx⟩))
        refine frPost_mk rfl (by repeat (first | assumption | exact Below.refl _ _ | refine bch ?_ (by assumption) | refine Below.alloc ?_ (by simp) _)) ?_; exact ⟨vx, rfl, own_lower hox (Nat.le_trans hs hbw.size)⟩
      · intro x w' hbw hd
        obtain ⟨v10, d10, o10⟩ := (show (Fact.wayT W1.heap.size PS FX).holds (x 10) w' from hd 10 rfl)
        clear hd
        go_wp2_with fail
        exact frPost_mk rfl (by repeat (first | assumption | exact Below.refl _ _ | refine bch ?_ (by assumption) | refine Below.alloc ?_ (by simp) _)) ⟨_, rfl, o10⟩
      · intro x w' hbw hd
        obtain ⟨v11, d11, o11⟩ := (show (Fact.wayT W1.heap.size PS FX).holds (x 11) w' from hd 11 rfl)
        clear hd
        go_wp2_with fail
        exact frPost_mk rfl (by repeat (first | assumption | exact Below.refl _ _ | refine bch ?_ (by assumption) | refine Below.alloc ?_ (by simp) _)) o11
      · intro x w' hbw hd
        obtain ⟨v11, d11, o11⟩ := (show (Fact.wayT W1.heap.size PS FX).holds (x 11) w' from hd 11 rfl)
        clear hd
        go_wp2_with fail
        exact frPost_mk rfl (by repeat (first | assumption | exact Below.refl _ _ | refine bch ?_ (by assumption) | refine Below.alloc ?_ (by simp) _)) rfl
      · intro x w' hbw hd
        clear hd
        go_wp2_with fail
        refine frPost_mk rfl (by repeat (first | assumption | exact Below.refl _ _ | refine bch ?_ (by assumption) | refine Below.alloc ?_ (by simp) _)) ?_; show (Fact.cell W5.heap.size).holds _ _; exact ⟨_, rfl, hbw.size, heap_pushF _ _ _⟩
      · intro x w' hbw hd
        have o12 : (Fact.strs W1.heap.size PS).holds (x 12) w' := hd 12 rfl
        clear hd
        go_wp2_with fail
        exact frPost_mk rfl (by repeat (first | assumption | exact Below.refl _ _ | refine bch ?_ (by assumption) | refine Below.alloc ?_ (by simp) _)) o12
    · intro x w' hbw hall
      have hxF : x 13 = .agg (hrow FX.1) := hall 13 (by decide)
      obtain ⟨g, hxc, hBg, hgz⟩ := (show (Fact.cell W5.heap.size).holds (x 14) w' from hall 14 (by decide))
      have hoa : w'.ownsRow W1.heap.size 9 1 (x 15) PS.length (PS.flatMap sval) := hall 15 (by decide)
      obtain ⟨va, hva⟩ : ∃ v, x 15 = v := ⟨_, rfl⟩
      rw [hva] at hoa
      clear hall
      simp only [hxF, hxc, hva, List.drop_succ_cons, List.drop_zero]
      have y9 := cells_of y9 hbw hy9
      have hy9 := Nat.lt_of_lt_of_le hy9 hbw.size
      have hbel := hbel.trans (hbw.mono hbel.size)
      have hs := Nat.le_trans hs hbw.size
      go_upto_region 9 with (refine wpList_storeRowTo (Z := hrow FX.1) rfl (.tmp 16) (.tmp 72) 25 rfl (by rw [tf]; kernel_rfl) rfl (by rfl) hgz (by rw [tf]; rfl) tfo ?_)
      refine wp_nameE _ (fun W6 hX => ?_)
      have hT : W6.heap[g]? = some (.cells (hrow FX.1) 25 (0, 0)) := by rw [hX]; exact setRow_heap _ _ _ _ _ _ hgz
      have y9 : W6.heap[w.heap.size + 1]? = some (.cells #[Value.int .u8 0, Value.int .u8 0, Value.int .u8 0, Value.int .u8 0, Value.int .u8 0, Value.int .u8 0, Value.int .u8 0, Value.int .u8 0, Value.int .u8 0, Value.int .u8 0, Value.int .u8 0, Value.int .u8 0, Value.int .u8 0, Value.int .u8 0, Value.int .u8 0, Value.int .u8 0, Value.int .u8 0, Value.int .u8 0, Value.int .u8 0, Value.int .u8 0, Value.int .u8 0, Value.int .u8 0, Value.int .u8 0, Value.int .u8 0, Value.int .u8 0, Value.int .u8 0, Value.int .u8 0, Value.int .u8 0, Value.int .u8 0, Value.int .u8 0, Value.int .u8 0, Value.int .u8 0] 25 (0, 0)) := by rw [hX, setRow_other _ _ _ _ (by omega)]; exact y9
      have hoa : W6.ownsRow W1.heap.size 9 1 va PS.length (PS.flatMap sval) := by rw [hX]; exact own_setO hoa hgz (by decide)
      have hbelX : Below W5.heap.size w' W6 := by rw [hX]; exact below_setRow (Below.refl _ _) (by omega) _
      have hbel : Below w.heap.size w W6 := hbel.trans (hbelX.mono (by omega))
      have hs : W1.heap.size ≤ W6.heap.size := Nat.le_trans hs hbelX.size
      have hr := hr0.below hbel
      have hTl : g < W6.heap.size := (Array.getElem?_eq_some_iff.1 hT).1
      have hy9 : w.heap.size + 1 < W6.heap.size := (Array.getElem?_eq_some_iff.1 y9).1
      clear hX hbelX hgz
      obtain ⟨b2, o2, he2, hb2, hrgq⟩ := hs_at hr (k := kk) (by simp; omega)
      simp only [Option.some.injEq, Addr.mk.injEq, and_true] at he2
      obtain ⟨rfl, rfl⟩ := he2
      rw [show (wp ++ [q])[kk]'(by simp; omega) = q by simp [← hkk]] at hrgq
      refine wp_region_facts [Fact.eq (.slice (some ⟨b, off, none⟩) k cap), Fact.eq (.int .i64 (kk : Int)), Fact.eq (.pointer (some ⟨b, off + kk * 32, none⟩)), Fact.eq (.agg (hrow q.1)), Fact.eq (.string Y), Fact.eq (.string ((⟨#[1]⟩ : ByteArray) ++ Y)), Fact.eq (.agg (hrow FX.1)), Fact.eq (.string X), Fact.eq (.string ((⟨#[1]⟩ : ByteArray) ++ Y ++ X)), Fact.eq (.string ((⟨#[1]⟩ : ByteArray) ++ Y ++ X))] (by kernel_rfl) (by kernel_rfl) (by kernel_rfl) (by kernel_rfl) (fun x => by simp only [fillFrom, Act.put, List.setIfInBounds_toArray, List.set_cons_succ, List.set_cons_zero]; rfl) ?_ ?_
      · refine ⟨?_, ?_, ?_, ?_, ?_, ?_, ?_, ?_, ?_, ?_, trivial⟩
        · intro x w' hbw hd
          clear hd
          go_wp2_with fail
          exact frPost_mk rfl (by repeat (first | assumption | exact Below.refl _ _ | refine bch ?_ (by assumption) | refine Below.alloc ?_ (by simp) _)) rfl
        · intro x w' hbw hd
          clear hd
          go_wp2_with fail
          exact frPost_mk rfl (by repeat (first | assumption | exact Below.refl _ _ | refine bch ?_ (by assumption) | refine Below.alloc ?_ (by simp) _)) rfl
        · intro x w' hbw hd
          have d0 : x 0 = .slice (some ⟨b, off, none⟩) k cap := hd 0 rfl
          have d1 : x 1 = .int .i64 (kk : Int) := hd 1 rfl
          clear hd
          go_wp2_with fail
          exact frPost_mk rfl (by repeat (first | assumption | exact Below.refl _ _ | refine bch ?_ (by assumption) | refine Below.alloc ?_ (by simp) _)) (by first | rfl | (show Value.pointer _ = Value.pointer _; simp))
        · intro x w' hbw hd
          have d2 : x 2 = .pointer (some ⟨b, off + kk * 32, none⟩) := hd 2 rfl
          clear hd
          have hrg : w'.rangeAt b (off + kk * 32) q.cells := fun j v hv => by rw [hbw.cell (p := ⟨b, off + kk * 32 + j, none⟩) hb2]; exact hrgq j v hv
          go_wp2_with (first | (refine wpList_load_mid rfl 25 (.tmp 75) rfl b (off + kk * 32) (by first | exact d2 | rfl) q.cells _ hrg Tryd.underlying25 rfl (hash_info q) ?_; rw [H32.row]))
          exact frPost_mk rfl (by repeat (first | assumption | exact Below.refl _ _ | refine bch ?_ (by assumption) | refine Below.alloc ?_ (by simp) _)) rfl
        · intro x w' hbw hd
          have d3 : x 3 = .agg (hrow q.1) := hd 3 rfl
          clear hd
          have CC := CY w'
          go_wp2_with (first | (go_at_call 69; refine (CC).mono ?_; rintro e wx ⟨rfl, hbx⟩))
          exact frPost_mk rfl (by repeat (first | assumption | exact Below.refl _ _ | refine bch ?_ (by assumption) | refine Below.alloc ?_ (by simp) _)) rfl
        · intro x w' hbw hd
          have d4 : x 4 = .string Y := hd 4 rfl
          clear hd
          go_wp2_with fail
          exact frPost_mk rfl (by repeat (first | assumption | exact Below.refl _ _ | refine bch ?_ (by assumption) | refine Below.alloc ?_ (by simp) _)) rfl
        · intro x w' hbw hd
          clear hd
          have hrg := hrow_range (cells_of hT hbw hTl)
          go_wp2_with (first | (refine wpList_load_mid rfl 25 (.tmp 16) rfl g 0 rfl FX.cells _ hrg Tryd.underlying25 rfl (hash_info FX) ?_; rw [H32.row]))
          exact frPost_mk rfl (by repeat (first | assumption | exact Below.refl _ _ | refine bch ?_ (by assumption) | refine Below.alloc ?_ (by simp) _)) rfl
        · intro x w' hbw hd
          have d6 : x 6 = .agg (hrow FX.1) := hd 6 rfl
          clear hd
          have CC := CX w'
          go_wp2_with (first | (go_at_call 69; refine (CC).mono ?_; rintro e wx ⟨rfl, hbx⟩))
          exact frPost_mk rfl (by repeat (first | assumption | exact Below.refl _ _ | refine bch ?_ (by assumption) | refine Below.alloc ?_ (by simp) _)) rfl
        · intro x w' hbw hd
          have d5 : x 5 = .string ((⟨#[1]⟩ : ByteArray) ++ Y) := hd 5 rfl
          have d7 : x 7 = .string X := hd 7 rfl
          clear hd
          go_wp2_with fail
          exact frPost_mk rfl (by repeat (first | assumption | exact Below.refl _ _ | refine bch ?_ (by assumption) | refine Below.alloc ?_ (by simp) _)) rfl
        · intro x w' hbw hd
          have d8 : x 8 = .string ((⟨#[1]⟩ : ByteArray) ++ Y ++ X) := hd 8 rfl
          clear hd
          go_wp2_with fail
          exact frPost_mk rfl (by repeat (first | assumption | exact Below.refl _ _ | refine bch ?_ (by assumption) | refine Below.alloc ?_ (by simp) _)) rfl
      intro x9 w9 hbw hall
      have hx9 : x9 9 = .string ((⟨#[1]⟩ : ByteArray) ++ Y ++ X) := hall 9 (by decide)
      clear hall
      simp only [hx9]
      have y9 := cells_of y9 hbw hy9
      have hbel := hbel.trans (hbw.mono hbel.size)
      have hs := Nat.le_trans hs hbw.size
      have hoa := own_keptH hoa hbw
      clear CX CY IH
      go_wp2_with (first | (at_builtin; refine wpList_append_ownA _ rfl (.tmp 82) (.tmp 84) 80 rfl W1.heap.size 9 i0 (.string ⟨#[]⟩) 1 16 Tryd.underlying80 ii hz0 hz1 hz2 rfl (by decide) _ _ _ rfl (hoa.alloc _) (some ⟨w9.heap.size, 0, none⟩) 1 1 ([(⟨#[1]⟩ : ByteArray) ++ Y ++ X].flatMap sval) rfl (fun h => by cases h) rfl (new_strA w9 _) (sval_one _) (by unfold maxLen; omega) (by omega) (Nat.le_trans hs (Nat.le_of_lt (by simp))) ?_; intro v11 w11 hown11 hgr11) | (go_at_call 66; refine (CSu _).mono ?_; rintro e w12 ⟨rfl, hb12⟩; have y10 := (heap_alloc_old w9 (.cells #[.string ((⟨#[1]⟩ : ByteArray) ++ Y ++ X)] 9) (Array.getElem?_eq_some_iff.1 y9).1).trans y9; have y11 := grown_atC hgr11 y10 (fun e => by have := (hoa.lt _ (show va.ownBlock = some (w.heap.size + 1) from e.symm)).1; have := HSZ.out; omega); have y12 := cells_of y11 hb12 (Array.getElem?_eq_some_iff.1 y11).1) | (refine wpList_storeRowTo (Z := hrow (nodeF q.1 FX.1)) rfl (.tmp 9) (.tmp 87) 25 rfl (by rw [tn]; kernel_rfl) rfl (by rfl) y12 (by rw [tn]; rfl) tno ?_))
      have hsz1 := HSZ.out
      have hbF : Below w.heap.size w w12 := ((hbel.alloc hbel.size _).trans ((below_grown (hoa.alloc _) hgr11 (Nat.le_trans hs (Nat.le_of_lt (by simp)))).mono (by omega))).trans (hb12.mono (by have h1 := hbel.size; have h3 := hgr11.size; simp at h3; omega))
      have hown12 := own_far (w' := w12.setRow (w.heap.size + 1) (hrow (nodeF q.1 FX.1))) (own_keptH hown11 hb12) (fun j h1 _ => setRow_other _ _ _ _ (by omega))
      have hrd := run_loadVar_row (P := Tryd.prog) _ _ 25 25 _ (0, 0) _ (setRow_heap _ _ _ _ _ _ y12) Tryd.underlying25 rfl (by rw [tn]; kernel_rfl)
      refine bodyPost_ret (v := .tuple #[v11, .agg (hrow (nodeF q.1 FX.1))]) ?_ rfl ?_
      · simp [results, Tryd.results97, asAddr, Act.put, hrd]
        try rfl
      refine ⟨v11, by rw [HR.out], ?_, below_setRow hbF (by omega) _⟩
      rw [HS.out, List.flatMap_append, List.length_append]
      exact own_lower hown12 (by omega)
end Go.Proofs.YtfikbaoiialfeaaDoor
namespace Go.Proofs.YtfikbaoiialfeaaDoor
open Go.RowKit
attribute [local go_sem] strV
set_option linter.unusedVariables false
def TwoApp (K : Nat) (v3 : Value) (S1 S2 : List ByteArray) (t : ByteArray) (d2 d11 : Bool) (x2 x11 : Value) (W : World) : Prop :=
  bif d11 then W.ownsRow K 9 1 x11 (S1 ++ S2 ++ [t]).length ((S1 ++ S2 ++ [t]).flatMap sval) else bif d2 then W.ownsRow K 9 1 x2 (S1 ++ S2).length ((S1 ++ S2).flatMap sval) else W.ownsRow K 9 1 v3 S1.length (S1.flatMap sval)
section
variable {K : Nat} {v3 x2 x11 : Value} {S1 S2 : List ByteArray} {t : ByteArray} {d2 d11 : Bool} {W W' : World}
theorem TwoApp.kept (h : TwoApp K v3 S1 S2 t d2 d11 x2 x11 W) (hb : Below W.heap.size W W') : TwoApp K v3 S1 S2 t d2 d11 x2 x11 W' := by
  unfold TwoApp at h ⊢
  cases d11 with
  | true => exact own_keptH h hb
  | false =>
    cases d2 with
    | true => exact own_keptH h hb
    | false => exact own_keptH h hb
theorem TwoApp.one (h : TwoApp K v3 S1 S2 t d2 d11 x2 x11 W) (h2 : d2 = false) (h11 : d11 = false) : W.ownsRow K 9 1 v3 S1.length (S1.flatMap sval) := by subst h2 h11; exact h
theorem TwoApp.mid (h : TwoApp K v3 S1 S2 t d2 d11 x2 x11 W) (h2 : d2 = true) (h11 : d11 = false) : W.ownsRow K 9 1 x2 (S1 ++ S2).length ((S1 ++ S2).flatMap sval) := by subst h2 h11; exact h
theorem TwoApp.two (h11 : d11 = false) (h : W.ownsRow K 9 1 x2 (S1.length + S2.length) (S1.flatMap sval ++ S2.flatMap sval)) : TwoApp K v3 S1 S2 t true d11 x2 x11 W := by
  subst h11
  show W.ownsRow K 9 1 x2 _ _
  rw [List.length_append, List.flatMap_append]; exact h
theorem TwoApp.three (h : W.ownsRow K 9 1 x11 ((S1 ++ S2).length + 1) ((S1 ++ S2).flatMap sval ++ [t].flatMap sval)) : TwoApp K v3 S1 S2 t d2 true x2 x11 W := by
  show W.ownsRow K 9 1 x11 (S1 ++ S2 ++ [t]).length ((S1 ++ S2 ++ [t]).flatMap sval)
  obtain ⟨L, hL⟩ : ∃ L, S1 ++ S2 = L := ⟨_, rfl⟩
  rw [hL] at h ⊢
  rw [List.length_append, List.flatMap_append]; exact h
end
theorem own_tag {w : World} {base : Nat} {e T : TypeId} {size n g : Nat} {v : Value} {xs : List Value} {cs : Array Value} {fz : Nat × Nat} (h : w.ownsRow base e size v n xs) (hv : v.ownBlock = some g) (hg : w.heap[g]? = some (.cells cs T fz)) : T = e := by
  rcases h.2 with ⟨rfl, _⟩ | ⟨g9, cap, cur, rfl, _, hgg, _⟩
  · simp [Value.ownBlock] at hv
  · simp [Value.ownBlock] at hv
    subst hv
    rw [hg] at hgg; cases hgg; rfl
theorem own_eq {u v : Value} {g : Nat} (d : u = v) (e : some g = u.ownBlock) : v.ownBlock = some g := by rw [← d]; exact e.symm
theorem grown_eq {w w' : World} {u v : Value} (d : u = v) (h : w.grownBy w' u.ownBlock) : w.grownBy w' v.ownBlock := by rw [← d]; exact h
theorem one_strA {w : World} {g : Nat} {s : ByteArray} (hg : w.heap[g]? = some (.cells #[.string s] 9 (0, 0))) : ∀ ad, some (⟨g, 0, none⟩ : Addr) = some ad → ∀ (j : Nat) (u : Value), ([s].flatMap sval)[j]? = some u → w.cell? (ad.add j) = some u := by
  intro ad e j u hu
  obtain rfl := Option.some.inj e
  rw [Addr.add_lit, Nat.zero_add, cell_heap hg j]
  simpa [sval] using hu
theorem own_apart {w : World} {b1 b2 : Nat} {e T : TypeId} {s1 s2 n1 n2 : Nat} {v u : Value} {xs ys : List Value} (h : w.ownsRow b1 e s1 v n1 xs) (h2 : w.ownsRow b2 T s2 u n2 ys) (hT : e ≠ T) : v.ownBlock = none ∨ v.ownBlock ≠ u.ownBlock := by
  rcases h.2 with ⟨rfl, _⟩ | ⟨g9, cap, cur, rfl, _, hgg, _⟩
  · exact .inl rfl
  · refine .inr (fun h9 => ?_)
    exact hT (own_tag h2 (h9.symm.trans rfl) hgg)
theorem leafT_str (k v : ByteArray) : strB (leafT k v) = (⟨#[0]⟩ : ByteArray) ++ ⟨(eightL k.size).toArray⟩ ++ k ++ v := by
  unfold leafT
  exact ba_data (by rw [strB_data]; simp [ByteArray.data_append])
theorem rootT_str (n : Int) (q : H32) : strB (rootT n q) = (⟨#[2]⟩ : ByteArray) ++ ⟨(eightL n).toArray⟩ ++ strB q.1 := by
  unfold rootT
  exact ba_data (by rw [strB_data]; simp [ByteArray.data_append, strB])
set_option maxRecDepth 100000 in
set_option maxHeartbeats 12800000 in
theorem inputs_any (a : Option Addr) (n cap : Nat) (l : List Pr) (w : World) (hr : RowAt w a (l.flatMap Pr.cells)) (hn : l.length = n) (hn6 : n ≤ 1000) (hcap : n ≤ cap) (hcm : cap ≤ maxLen) (hs : ∀ p ∈ l, p.k.size ≤ 300000 ∧ p.v.size ≤ 300000) :
    Calls Tryd.prog 60 #[.slice a n cap] w fun e w' => ∃ v, e = .returned v ∧ w'.ownsRow w.heap.size 9 1 v (strsB (inputsT l)).length ((strsB (inputsT l)).flatMap sval) ∧ Below w.heap.size w w' := by
  have HN := Lib.hid hn
  have HSZ := Lib.hid hs
  clear hn hs
  obtain ⟨i1, ii1, hz1, hy1, hx1⟩ := info_parts Tryd.infoSt
  obtain ⟨i2, ii2, hz2, hy2, hx2⟩ := info_parts Tryd.infoH
  go_enter Tryd.func60, Tryd.ntmps60
  go_upto_region 4 with fail
  go_loopw [3, 4, 5] (fun v u i wr => ∃ k : Nat, k ≤ n ∧ i = .int .i64 k ∧ wr.ownsRow w.heap.size 9 1 v k ((strsB ((l.take k).map (fun p => leafT p.k p.v))).flatMap sval) ∧ wr.ownsRow w.heap.size 25 32 u k (((l.take k).map leafH).flatMap H32.cells) ∧ Below w.heap.size w wr) (fun _ _ i _ => n - (intOf i).toNat)
  case atStart => exact ⟨0, Nat.zero_le _, rfl, ⟨rfl, .inl ⟨rfl, rfl⟩⟩, ⟨rfl, .inl ⟨rfl, rfl⟩⟩, Below.refl _ _⟩
  case round =>
    obtain ⟨k, hk, rfl, hownO, hownH, hbel⟩ := hrel
    by_cases hlt : k < n
    · have d1 : decide ((k : Int) < (n : Int)) = true := decide_eq_true (by omega)
      have d1n : decide (k < n) = true := decide_eq_true hlt
      have hkl : k < l.length := by rw [HN.out]; exact hlt
      obtain ⟨b1, o1, rfl, hb1, hg1⟩ := pr_range (hr.below hbel) hkl
      have hsz := HSZ.out _ (List.getElem_mem hkl)
      have hto : (strsB ((l.take (k + 1)).map (fun p => leafT p.k p.v))).flatMap sval = (strsB ((l.take k).map (fun p => leafT p.k p.v))).flatMap sval ++ [strB (leafT l[k].k l[k].v)].flatMap sval := by
        rw [List.take_succ_eq_append_getElem hkl, List.map_append, strsB_flat]; rfl
      have hth : (((l.take (k + 1)).map leafH).flatMap H32.cells) = ((l.take k).map leafH).flatMap H32.cells ++ (leafH l[k]).cells := by
        rw [List.take_succ_eq_append_getElem hkl, List.map_append, List.flatMap_append]
        simp
      obtain ⟨p, hp9⟩ : ∃ p, l[k] = p := ⟨_, rfl⟩
      rw [hp9] at hg1 hsz hto hth
      have CLf := fun W => refLeaf_any p.k p.v W hsz.1 hsz.2
      obtain ⟨q, hq9⟩ : ∃ q : H32, leafH p = q := ⟨_, rfl⟩
      have hqe : leafF p.k p.v = q.1 := by rw [← hq9]; rfl
      simp only [hqe] at CLf
      rw [hq9] at hth
      have CE := fun W => refEight_any (p.k.size : Int) W
      unfold strV at CE
      rw [leafT_str] at hto
      have hEs : (⟨(eightL (p.k.size : Int)).toArray⟩ : ByteArray).size ≤ 8 := eightL_le _
      obtain ⟨Ee, hE⟩ : ∃ E : ByteArray, (⟨(eightL (p.k.size : Int)).toArray⟩ : ByteArray) = E := ⟨_, rfl⟩
      simp only [hE] at CE hto hEs
      have h1s : (⟨#[0]⟩ : ByteArray).size = 1 := rfl
      have hcat1 : ¬ 9223372036854775807 < (⟨#[0]⟩ : ByteArray).size + Ee.size := by omega
      have hcat2 : ¬ 9223372036854775807 < ((⟨#[0]⟩ : ByteArray) ++ Ee).size + p.k.size := by rw [ByteArray.size_append]; omega
      have hcat3 : ¬ 9223372036854775807 < (((⟨#[0]⟩ : ByteArray) ++ Ee) ++ p.k).size + p.v.size := by rw [ByteArray.size_append, ByteArray.size_append]; omega
      have hcat4 : ¬ 9223372036854775807 < (⟨#[0]⟩ : ByteArray).size + Ee.size + p.k.size := by omega
      have hcat5 : ¬ 9223372036854775807 < (⟨#[0]⟩ : ByteArray).size + Ee.size + p.k.size + p.v.size := by omega
      have hcat6 : ¬ 9223372036854775807 < 1 + Ee.size + p.k.size := by omega
      have hcat7 : ¬ 9223372036854775807 < 1 + Ee.size + p.k.size + p.v.size := by omega
      have hcat8 : ¬ 9223372036854775807 < 1 + Ee.size := by omega
      have HTO := Lib.hid hto
      have HTH := Lib.hid hth
      clear hp9 hto hth hq9 hqe hsz hE hEs h1s
      obtain ⟨a3, c3, rfl, _⟩ := own_sliceH hownO
      obtain ⟨a4, c4, rfl, _⟩ := own_sliceH hownH
      have q0 : wr.cell? ⟨b1, o1 + k * 2, none⟩ = some (.string p.k) := hg1 0 _ rfl
      have q1 : wr.cell? ⟨b1, o1 + k * 2 + 1, none⟩ = some (.string p.v) := hg1 1 _ rfl
      clear hg1
      have n0 : (0 : Int) ≤ (k : Int) := by omega
      have n1 : (k : Int) < (n : Int) := by omega
      have n2 : ((k : Nat) : Int).toNat = k := by omega
      go_upto_region 6 with fail
      refine wp_region_facts_chain 22 (by decide) [Fact.eq (.slice a3 k c3), Fact.eq (.slice (some ⟨b1, o1, none⟩) n cap), Fact.eq (.int .i64 (k : Int)), Fact.eq (.pointer (some ⟨b1, o1 + k * 2, none⟩)), Fact.eq (.pointer (some ⟨b1, o1 + k * 2, none⟩)), Fact.eq (.string p.k), Fact.eq (.int .i64 (p.k.size : Int)), Fact.eq (.string Ee), Fact.eq (.string ((⟨#[0]⟩ : ByteArray) ++ Ee)), Fact.eq (.slice (some ⟨b1, o1, none⟩) n cap), Fact.eq (.int .i64 (k : Int)), Fact.eq (.pointer (some ⟨b1, o1 + k * 2, none⟩)), Fact.eq (.pointer (some ⟨b1, o1 + k * 2, none⟩)), Fact.eq (.string p.k), Fact.eq (.string ((⟨#[0]⟩ : ByteArray) ++ Ee ++ p.k)), Fact.eq (.slice (some ⟨b1, o1, none⟩) n cap), Fact.eq (.int .i64 (k : Int)), Fact.eq (.pointer (some ⟨b1, o1 + k * 2, none⟩)), Fact.eq (.pointer (some ⟨b1, o1 + k * 2 + 1, none⟩)), Fact.eq (.string p.v), Fact.eq (.string ((⟨#[0]⟩ : ByteArray) ++ Ee ++ p.k ++ p.v)), Fact.row (1) ([((⟨#[0]⟩ : ByteArray) ++ Ee ++ p.k ++ p.v)].flatMap sval)] (by kernel_rfl) (by kernel_rfl) (by kernel_rfl) (by kernel_rfl) (by kernel_rfl) (by kernel_rfl) (by kernel_rfl) (fun x => by simp only [List.take_succ_cons, List.take_zero, fillFrom, Act.put, List.setIfInBounds_toArray, List.set_cons_succ, List.set_cons_zero]; rfl) ?_ ?_
      · refine ⟨?_, ?_, ?_, ?_, ?_, ?_, ?_, ?_, ?_, ?_, ?_, ?_, ?_, ?_, ?_, ?_, ?_, ?_, ?_, ?_, ?_, ?_, trivial⟩
        · intro x w' hbw hd
          clear hd
          go_wp2_with fail
          exact frPost_mk rfl (by repeat (first | assumption | exact Below.refl _ _ | refine bch ?_ (by assumption) | refine Below.alloc ?_ (by simp) _)) rfl
        · intro x w' hbw hd
          clear hd
          go_wp2_with fail
          exact frPost_mk rfl (by repeat (first | assumption | exact Below.refl _ _ | refine bch ?_ (by assumption) | refine Below.alloc ?_ (by simp) _)) rfl
        · intro x w' hbw hd
          clear hd
          go_wp2_with fail
          exact frPost_mk rfl (by repeat (first | assumption | exact Below.refl _ _ | refine bch ?_ (by assumption) | refine Below.alloc ?_ (by simp) _)) rfl
        · intro x w' hbw hd
          have d1 : x 1 = .slice (some ⟨b1, o1, none⟩) n cap := hd 1 rfl
          have d2 : x 2 = .int .i64 (k : Int) := hd 2 rfl
          clear hd
          go_wp2_with fail
          exact frPost_mk rfl (by repeat (first | assumption | exact Below.refl _ _ | refine bch ?_ (by assumption) | refine Below.alloc ?_ (by simp) _)) (by first | rfl | (show Value.pointer _ = Value.pointer _; simp))
        · intro x w' hbw hd
          have d3 : x 3 = .pointer (some ⟨b1, o1 + k * 2, none⟩) := hd 3 rfl
          clear hd
          go_wp2_with fail
          exact frPost_mk rfl (by repeat (first | assumption | exact Below.refl _ _ | refine bch ?_ (by assumption) | refine Below.alloc ?_ (by simp) _)) rfl
        · intro x w' hbw hd
          have d4 : x 4 = .pointer (some ⟨b1, o1 + k * 2, none⟩) := hd 4 rfl
          clear hd
          have cq : w'.cell? ⟨b1, o1 + k * 2, none⟩ = some (.string p.k) := by rw [hbw.cell (p := ⟨b1, o1 + k * 2, none⟩) hb1]; exact q0
          go_wp2_with (first | fail)
          exact frPost_mk rfl (by repeat (first | assumption | exact Below.refl _ _ | refine bch ?_ (by assumption) | refine Below.alloc ?_ (by simp) _)) rfl
        · intro x w' hbw hd
          have d5 : x 5 = .string p.k := hd 5 rfl
          clear hd
          go_wp2_with fail
          exact frPost_mk rfl (by repeat (first | assumption | exact Below.refl _ _ | refine bch ?_ (by assumption) | refine Below.alloc ?_ (by simp) _)) rfl
        · intro x w' hbw hd
          have d6 : x 6 = .int .i64 (p.k.size : Int) := hd 6 rfl
          clear hd
          have CC := CE w'
          go_wp2_with (first | (go_at_call 67; refine CC.mono ?_; rintro e wx ⟨rfl, hbx⟩))
          exact frPost_mk rfl (by repeat (first | assumption | exact Below.refl _ _ | refine bch ?_ (by assumption) | refine Below.alloc ?_ (by simp) _)) rfl
        · intro x w' hbw hd
          have d7 : x 7 = .string Ee := hd 7 rfl
          clear hd
          go_wp2_with fail
          exact frPost_mk rfl (by repeat (first | assumption | exact Below.refl _ _ | refine bch ?_ (by assumption) | refine Below.alloc ?_ (by simp) _)) rfl
        · intro x w' hbw hd
          clear hd
          go_wp2_with fail
          exact frPost_mk rfl (by repeat (first | assumption | exact Below.refl _ _ | refine bch ?_ (by assumption) | refine Below.alloc ?_ (by simp) _)) rfl
        · intro x w' hbw hd
          clear hd
          go_wp2_with fail
          exact frPost_mk rfl (by repeat (first | assumption | exact Below.refl _ _ | refine bch ?_ (by assumption) | refine Below.alloc ?_ (by simp) _)) rfl
        · intro x w' hbw hd
          have d9 : x 9 = .slice (some ⟨b1, o1, none⟩) n cap := hd 9 rfl
          have d10 : x 10 = .int .i64 (k : Int) := hd 10 rfl
          clear hd
          go_wp2_with fail
          exact frPost_mk rfl (by repeat (first | assumption | exact Below.refl _ _ | refine bch ?_ (by assumption) | refine Below.alloc ?_ (by simp) _)) (by first | rfl | (show Value.pointer _ = Value.pointer _; simp))
        · intro x w' hbw hd
          have d11 : x 11 = .pointer (some ⟨b1, o1 + k * 2, none⟩) := hd 11 rfl
          clear hd
          go_wp2_with fail
          exact frPost_mk rfl (by repeat (first | assumption | exact Below.refl _ _ | refine bch ?_ (by assumption) | refine Below.alloc ?_ (by simp) _)) rfl
        · intro x w' hbw hd
          have d12 : x 12 = .pointer (some ⟨b1, o1 + k * 2, none⟩) := hd 12 rfl
          clear hd
          have cq : w'.cell? ⟨b1, o1 + k * 2, none⟩ = some (.string p.k) := by rw [hbw.cell (p := ⟨b1, o1 + k * 2, none⟩) hb1]; exact q0
          go_wp2_with (first | fail)
          exact frPost_mk rfl (by repeat (first | assumption | exact Below.refl _ _ | refine bch ?_ (by assumption) | refine Below.alloc ?_ (by simp) _)) rfl
        · intro x w' hbw hd
          have d8 : x 8 = .string ((⟨#[0]⟩ : ByteArray) ++ Ee) := hd 8 rfl
          have d13 : x 13 = .string p.k := hd 13 rfl
          clear hd
          go_wp2_with fail
          exact frPost_mk rfl (by repeat (first | assumption | exact Below.refl _ _ | refine bch ?_ (by assumption) | refine Below.alloc ?_ (by simp) _)) rfl
        · intro x w' hbw hd
          clear hd
          go_wp2_with fail
          exact frPost_mk rfl (by repeat (first | assumption | exact Below.refl _ _ | refine bch ?_ (by assumption) | refine Below.alloc ?_ (by simp) _)) rfl
        · intro x w' hbw hd
          clear hd
          go_wp2_with fail
          exact frPost_mk rfl (by repeat (first | assumption | exact Below.refl _ _ | refine bch ?_ (by assumption) | refine Below.alloc ?_ (by simp) _)) rfl
        · intro x w' hbw hd
          have d15 : x 15 = .slice (some ⟨b1, o1, none⟩) n cap := hd 15 rfl
          have d16 : x 16 = .int .i64 (k : Int) := hd 16 rfl
          clear hd
          go_wp2_with fail
          exact frPost_mk rfl (by repeat (first | assumption | exact Below.refl _ _ | refine bch ?_ (by assumption) | refine Below.alloc ?_ (by simp) _)) (by first | rfl | (show Value.pointer _ = Value.pointer _; simp))
        · intro x w' hbw hd
          have d17 : x 17 = .pointer (some ⟨b1, o1 + k * 2, none⟩) := hd 17 rfl
          clear hd
          go_wp2_with fail
          exact frPost_mk rfl (by repeat (first | assumption | exact Below.refl _ _ | refine bch ?_ (by assumption) | refine Below.alloc ?_ (by simp) _)) rfl
        · intro x w' hbw hd
          have d18 : x 18 = .pointer (some ⟨b1, o1 + k * 2 + 1, none⟩) := hd 18 rfl
          clear hd
          have cq : w'.cell? ⟨b1, o1 + k * 2 + 1, none⟩ = some (.string p.v) := by rw [hbw.cell (p := ⟨b1, o1 + k * 2 + 1, none⟩) hb1]; exact q1
          go_wp2_with (first | fail)
          exact frPost_mk rfl (by repeat (first | assumption | exact Below.refl _ _ | refine bch ?_ (by assumption) | refine Below.alloc ?_ (by simp) _)) rfl
        · intro x w' hbw hd
          have d14 : x 14 = .string ((⟨#[0]⟩ : ByteArray) ++ Ee ++ p.k) := hd 14 rfl
          have d19 : x 19 = .string p.v := hd 19 rfl
          clear hd
          go_wp2_with fail
          exact frPost_mk rfl (by repeat (first | assumption | exact Below.refl _ _ | refine bch ?_ (by assumption) | refine Below.alloc ?_ (by simp) _)) rfl
        · intro x w' hbw hd
          have d20 : x 20 = .string ((⟨#[0]⟩ : ByteArray) ++ Ee ++ p.k ++ p.v) := hd 20 rfl
          clear hd
          go_wp2_with fail
          refine frPost_mk rfl (by repeat (first | assumption | exact Below.refl _ _ | refine bch ?_ (by assumption) | refine Below.alloc ?_ (by simp) _)) ?_; show (Fact.row (1) ([((⟨#[0]⟩ : ByteArray) ++ Ee ++ p.k ++ p.v)].flatMap sval)).holds _ _; exact ⟨_, _, rfl, row_newH _ _ _⟩
      · intro x w' hbw hall
        have hx0 : x 0 = .slice a3 k c3 := hall 0 (by decide)
        obtain ⟨a9, c9, hx21, hr9⟩ := (show (Fact.row (1) ([((⟨#[0]⟩ : ByteArray) ++ Ee ++ p.k ++ p.v)].flatMap sval)).holds (x 21) w' from hall 21 (by decide))
        clear hall
        have hownO := own_keptH hownO hbw
        have hownH := own_keptH hownH hbw
        have hbel := hbel.trans (hbw.mono hbel.size)
        have q0 : w'.cell? ⟨b1, o1 + k * 2, none⟩ = some (.string p.k) := by rw [hbw.cell (p := ⟨b1, o1 + k * 2, none⟩) hb1]; exact q0
        have q1 : w'.cell? ⟨b1, o1 + k * 2 + 1, none⟩ = some (.string p.v) := by rw [hbw.cell (p := ⟨b1, o1 + k * 2 + 1, none⟩) hb1]; exact q1
        have hb1w : b1 < w.heap.size := by
          rcases hr with h | ⟨b2, o2, e2, h2, _⟩
          · have h2 := pr_flat_len l; rw [h, List.length_nil] at h2; omega
          · simp only [Option.some.injEq, Addr.mk.injEq] at e2
            rw [e2.1]; exact h2
        rcases hr9 with hr9 | ⟨b9, o9, rfl, hb9, hc9⟩
        · have := sval_flat_len [((⟨#[0]⟩ : ByteArray) ++ Ee ++ p.k ++ p.v)]; rw [hr9] at this; simp at this
        have hnews : ∀ j u, ([((⟨#[0]⟩ : ByteArray) ++ Ee ++ p.k ++ p.v)].flatMap sval)[j]? = some u → w'.cell? ((⟨b9, o9, none⟩ : Addr).add j) = some u := fun j u hj => by
          rw [Addr.add_mid, hc9 j (List.getElem?_eq_some_iff.1 hj).1, hj]
        simp only [hx0, hx21, List.drop_succ_cons, List.drop_zero]
        go_upto_region 7 with (at_builtin; refine wpList_append_ownA _ rfl (.tmp 14) (.tmp 35) 80 rfl w.heap.size 9 i1 (.string ⟨#[]⟩) 1 16 Tryd.underlying80 ii1 hz1 hy1 hx1 rfl (by decide) _ _ _ rfl hownO (some ⟨b9, o9, none⟩) 1 c9 ([((⟨#[0]⟩ : ByteArray) ++ Ee ++ p.k ++ p.v)].flatMap sval) rfl (fun h => by cases h) rfl (fun ad e j u hu => by obtain rfl := Option.some.inj e; exact hnews j u hu) (sval_one _) (by unfold maxLen; omega) (by omega) hbel.size ?_; intro v6 w6 hown6 hgr6)
        have hb6 := below_grown hownO hgr6 hbel.size
        have hownH := hownH.kept hgr6 (own_apart hownH hownO (by decide))
        have q0 : w6.cell? ⟨b1, o1 + k * 2, none⟩ = some (.string p.k) := by rw [hb6.cell (p := ⟨b1, o1 + k * 2, none⟩) hb1w]; exact q0
        have q1 : w6.cell? ⟨b1, o1 + k * 2 + 1, none⟩ = some (.string p.v) := by rw [hb6.cell (p := ⟨b1, o1 + k * 2 + 1, none⟩) hb1w]; exact q1
        have hbel := hbel.trans hb6
        have hb1 : b1 < w6.heap.size := Nat.lt_of_lt_of_le hb1w hbel.size
        have hownO : w6.ownsRow w.heap.size 9 1 v6 (k + 1) ((strsB ((l.take (k + 1)).map (fun p => leafT p.k p.v))).flatMap sval) := by rw [HTO.out]; exact hown6
        clear hown6 hgr6 hb6 hx0 hx21 hnews hc9 hb9
        refine wp_region_facts_chain 13 (by decide) [Fact.eq (.slice a4 k c4), Fact.eq (.slice (some ⟨b1, o1, none⟩) n cap), Fact.eq (.int .i64 (k : Int)), Fact.eq (.pointer (some ⟨b1, o1 + k * 2, none⟩)), Fact.eq (.pointer (some ⟨b1, o1 + k * 2, none⟩)), Fact.eq (.string p.k), Fact.eq (.slice (some ⟨b1, o1, none⟩) n cap), Fact.eq (.int .i64 (k : Int)), Fact.eq (.pointer (some ⟨b1, o1 + k * 2, none⟩)), Fact.eq (.pointer (some ⟨b1, o1 + k * 2 + 1, none⟩)), Fact.eq (.string p.v), Fact.eq (.agg (hrow q.1)), Fact.row (1) (q.cells)] (by kernel_rfl) (by kernel_rfl) (by kernel_rfl) (by kernel_rfl) (by kernel_rfl) (by kernel_rfl) (by kernel_rfl) (fun x => by simp only [List.take_succ_cons, List.take_zero, fillFrom, Act.put, List.setIfInBounds_toArray, List.set_cons_succ, List.set_cons_zero]; rfl) ?_ ?_
        · refine ⟨?_, ?_, ?_, ?_, ?_, ?_, ?_, ?_, ?_, ?_, ?_, ?_, ?_, trivial⟩
          · intro x w' hbw hd
            clear hd
            go_wp2_with fail
            exact frPost_mk rfl (by repeat (first | assumption | exact Below.refl _ _ | refine bch ?_ (by assumption) | refine Below.alloc ?_ (by simp) _)) rfl
          · intro x w' hbw hd
            clear hd
            go_wp2_with fail
            exact frPost_mk rfl (by repeat (first | assumption | exact Below.refl _ _ | refine bch ?_ (by assumption) | refine Below.alloc ?_ (by simp) _)) rfl
          · intro x w' hbw hd
            clear hd
            go_wp2_with fail
            exact frPost_mk rfl (by repeat (first | assumption | exact Below.refl _ _ | refine bch ?_ (by assumption) | refine Below.alloc ?_ (by simp) _)) rfl
          · intro x w' hbw hd
            have d1 : x 1 = .slice (some ⟨b1, o1, none⟩) n cap := hd 1 rfl
            have d2 : x 2 = .int .i64 (k : Int) := hd 2 rfl
            clear hd
            go_wp2_with fail
            exact frPost_mk rfl (by repeat (first | assumption | exact Below.refl _ _ | refine bch ?_ (by assumption) | refine Below.alloc ?_ (by simp) _)) (by first | rfl | (show Value.pointer _ = Value.pointer _; simp))
          · intro x w' hbw hd
            have d3 : x 3 = .pointer (some ⟨b1, o1 + k * 2, none⟩) := hd 3 rfl
            clear hd
            go_wp2_with fail
            exact frPost_mk rfl (by repeat (first | assumption | exact Below.refl _ _ | refine bch ?_ (by assumption) | refine Below.alloc ?_ (by simp) _)) rfl
          · intro x w' hbw hd
            have d4 : x 4 = .pointer (some ⟨b1, o1 + k * 2, none⟩) := hd 4 rfl
            clear hd
            have cq : w'.cell? ⟨b1, o1 + k * 2, none⟩ = some (.string p.k) := by rw [hbw.cell (p := ⟨b1, o1 + k * 2, none⟩) hb1]; exact q0
            go_wp2_with (first | fail)
            exact frPost_mk rfl (by repeat (first | assumption | exact Below.refl _ _ | refine bch ?_ (by assumption) | refine Below.alloc ?_ (by simp) _)) rfl
          · intro x w' hbw hd
            clear hd
            go_wp2_with fail
            exact frPost_mk rfl (by repeat (first | assumption | exact Below.refl _ _ | refine bch ?_ (by assumption) | refine Below.alloc ?_ (by simp) _)) rfl
          · intro x w' hbw hd
            clear hd
            go_wp2_with fail
            exact frPost_mk rfl (by repeat (first | assumption | exact Below.refl _ _ | refine bch ?_ (by assumption) | refine Below.alloc ?_ (by simp) _)) rfl
          · intro x w' hbw hd
            have d6 : x 6 = .slice (some ⟨b1, o1, none⟩) n cap := hd 6 rfl
            have d7 : x 7 = .int .i64 (k : Int) := hd 7 rfl
            clear hd
            go_wp2_with fail
            exact frPost_mk rfl (by repeat (first | assumption | exact Below.refl _ _ | refine bch ?_ (by assumption) | refine Below.alloc ?_ (by simp) _)) (by first | rfl | (show Value.pointer _ = Value.pointer _; simp))
          · intro x w' hbw hd
            have d8 : x 8 = .pointer (some ⟨b1, o1 + k * 2, none⟩) := hd 8 rfl
            clear hd
            go_wp2_with fail
            exact frPost_mk rfl (by repeat (first | assumption | exact Below.refl _ _ | refine bch ?_ (by assumption) | refine Below.alloc ?_ (by simp) _)) rfl
          · intro x w' hbw hd
            have d9 : x 9 = .pointer (some ⟨b1, o1 + k * 2 + 1, none⟩) := hd 9 rfl
            clear hd
            have cq : w'.cell? ⟨b1, o1 + k * 2 + 1, none⟩ = some (.string p.v) := by rw [hbw.cell (p := ⟨b1, o1 + k * 2 + 1, none⟩) hb1]; exact q1
            go_wp2_with (first | fail)
            exact frPost_mk rfl (by repeat (first | assumption | exact Below.refl _ _ | refine bch ?_ (by assumption) | refine Below.alloc ?_ (by simp) _)) rfl
          · intro x w' hbw hd
            have d5 : x 5 = .string p.k := hd 5 rfl
            have d10 : x 10 = .string p.v := hd 10 rfl
            clear hd
            have CC := CLf w'
            go_wp2_with (first | (go_at_call 13; refine CC.mono ?_; rintro e wx ⟨rfl, hbx⟩))
            exact frPost_mk rfl (by repeat (first | assumption | exact Below.refl _ _ | refine bch ?_ (by assumption) | refine Below.alloc ?_ (by simp) _)) rfl
          · intro x w' hbw hd
            have d11 : x 11 = .agg (hrow q.1) := hd 11 rfl
            clear hd
            have hsz : (hrow q.1).size = 32 := by rw [hrow_size]; exact q.2
            go_wp2_with fail
            refine frPost_mk rfl (by repeat (first | assumption | exact Below.refl _ _ | refine bch ?_ (by assumption) | refine Below.alloc ?_ (by simp) _)) ?_; show (Fact.row (1) (q.cells)).holds _ _; exact ⟨_, _, rfl, by rw [fold_row _ (hrow q.1) 32 hsz (by rfl), ← H32.list]; exact row_newH _ _ _⟩
        · intro x w' hbw hall
          have hx0 : x 0 = .slice a4 k c4 := hall 0 (by decide)
          obtain ⟨a9, c9, hx12, hr9⟩ := (show (Fact.row (1) (q.cells)).holds (x 12) w' from hall 12 (by decide))
          clear hall
          have hownO := own_keptH hownO hbw
          have hownH := own_keptH hownH hbw
          have hbel := hbel.trans (hbw.mono hbel.size)
          rcases hr9 with hr9 | ⟨b9, o9, rfl, hb9, hc9⟩
          · have := H32.cells_len q; rw [hr9] at this; cases this
          have hnews : ∀ j u, (q.cells)[j]? = some u → w'.cell? ((⟨b9, o9, none⟩ : Addr).add j) = some u := fun j u hj => by
            rw [Addr.add_mid, hc9 j (List.getElem?_eq_some_iff.1 hj).1, hj]
          simp only [hx0, hx12, List.drop_succ_cons, List.drop_zero]
          go_wp2_with (at_builtin; refine wpList_append_ownA _ rfl (.tmp 37) (.tmp 49) 22 rfl w.heap.size 25 i2 (.agg #[.int .u8 0, .int .u8 0, .int .u8 0, .int .u8 0, .int .u8 0, .int .u8 0, .int .u8 0, .int .u8 0, .int .u8 0, .int .u8 0, .int .u8 0, .int .u8 0, .int .u8 0, .int .u8 0, .int .u8 0, .int .u8 0, .int .u8 0, .int .u8 0, .int .u8 0, .int .u8 0, .int .u8 0, .int .u8 0, .int .u8 0, .int .u8 0, .int .u8 0, .int .u8 0, .int .u8 0, .int .u8 0, .int .u8 0, .int .u8 0, .int .u8 0, .int .u8 0]) 32 32 Tryd.underlying22 ii2 hz2 hy2 hx2 rfl (by decide) _ _ _ rfl hownH (some ⟨b9, o9, none⟩) 1 c9 q.cells rfl (fun h => by cases h) (by rw [H32.cells_len]) (fun ad e j u hu => by obtain rfl := Option.some.inj e; exact hnews j u hu) hs_one1 (by unfold maxLen; omega) (by omega) hbel.size ?_; intro v7 w7 hown7 hgr7)
          have hb7 := below_grown hownH hgr7 hbel.size
          have hownO := hownO.kept hgr7 (own_apart hownO hownH (by decide))
          go_roundw
          case rel => exact ⟨k + 1, by omega, by go_num, hownO, by rw [HTH.out]; exact hown7, hbel.trans hb7⟩
          case measure => (simp [intOf]) <;> omega
    · have d9 : decide ((k : Int) < (n : Int)) = false := decide_eq_false (by omega)
      have d9n : decide (k < n) = false := decide_eq_false hlt
      rw [List.take_of_length_le (by rw [HN.out]; omega)] at hownO hownH
      obtain rfl : k = n := by omega
      obtain ⟨a4, c4, rfl, hr4, hc4, hm4⟩ := own_sliceH hownH
      have hml : (l.map leafH).length = k := by rw [List.length_map, HN.out]
      have CT := fun W (hb : Below wr.heap.size wr W) => topT_any k (l.map leafH) a4 c4 W hml (by omega) hc4 hm4 (hr4.below hb)
      unfold TopPost at CT
      have LT := topT_len k (l.map leafH) hml
      have hin : strsB (inputsT l) = strsB (l.map (fun p => leafT p.k p.v)) ++ strsB (topT (l.map leafH)) ++ [strB (rootT (k : Int) (topH (l.map leafH)))] := by
        unfold inputsT; rw [strsB_app, strsB_app, HN.out]; rfl
      rw [rootT_str] at hin
      have LS1 : (strsB (l.map (fun p => leafT p.k p.v))).length = k := by rw [strsB_len, List.length_map, HN.out]
      obtain ⟨T, hT⟩ : ∃ T, topH (l.map leafH) = T := ⟨_, rfl⟩
      obtain ⟨S1, hS1⟩ : ∃ S, strsB (l.map (fun p => leafT p.k p.v)) = S := ⟨_, rfl⟩
      have LS2 := strsB_len (topT (l.map leafH))
      obtain ⟨S2, hS2⟩ : ∃ S, strsB (topT (l.map leafH)) = S := ⟨_, rfl⟩
      simp only [hT, hS1, hS2] at hin CT
      rw [hS1] at hownO LS1
      rw [hS2] at LS2
      rw [← LS1] at hownO
      have CE := fun W => refEight_any (k : Int) W
      unfold strV at CE
      have CX := fun W => refText_any W T.1 T.2
      rw [show (⟨T.1.toArray⟩ : ByteArray) = strB T.1 from rfl] at CX
      have hXs : (strB T.1).size = 32 := by rw [strB_size]; exact T.2
      have hEs : (⟨(eightL (k : Int)).toArray⟩ : ByteArray).size ≤ 8 := eightL_le _
      obtain ⟨Ee, hE⟩ : ∃ E : ByteArray, (⟨(eightL (k : Int)).toArray⟩ : ByteArray) = E := ⟨_, rfl⟩
      obtain ⟨Xx, hX9⟩ : ∃ E : ByteArray, strB T.1 = E := ⟨_, rfl⟩
      simp only [hE] at CE hin hEs
      simp only [hX9] at CX hin hXs
      have h1s : (⟨#[2]⟩ : ByteArray).size = 1 := rfl
      have hcat1 : ¬ 9223372036854775807 < (⟨#[2]⟩ : ByteArray).size + Ee.size := by omega
      have hcat2 : ¬ 9223372036854775807 < ((⟨#[2]⟩ : ByteArray) ++ Ee).size + Xx.size := by rw [ByteArray.size_append]; omega
      have hcat3 : ¬ 9223372036854775807 < 1 + Ee.size := by omega
      have hcat4 : ¬ 9223372036854775807 < 1 + Ee.size + Xx.size := by omega
      have hcat5 : ¬ 9223372036854775807 < (⟨#[2]⟩ : ByteArray).size + Ee.size + Xx.size := by omega
      have HIN := Lib.hid hin
      have HLS1 := Lib.hid LS1
      have hl1 : S1.length ≤ 1000 := by omega
      have hl2 : S2.length ≤ 1000 := by omega
      have HL2 := Lib.hid (sval_flat_len S2)
      have tt : (hrow T.1).size = 32 := by rw [hrow_size]; exact T.2
      have tto := hrow_one T.1
      clear hT hS1 hS2 hE hX9 hin LS1 LS2 LT hml hXs hEs h1s hr4
      have hb4 := Below.refl wr.heap.size wr
      go_upto_region 9 with (first | (go_at_call 96; refine (CT _ hb4).mono ?_; rintro e w7 ⟨vi, rfl, hoi, hb7⟩) | (refine wpList_storeRowTo (Z := hrow T.1) rfl (.tmp 7) (.tmp 55) 25 rfl (by rw [tt]; kernel_rfl) rfl (by rfl) (heap_push _ _ _) (by rw [tt]; rfl) tto ?_))
      refine wp_nameE _ (fun W9 hX => ?_)
      have hA : Below w7.heap.size w7 W9 := by rw [hX]; exact below_setRow (Below.alloc (Below.refl _ _) (Nat.le_refl _) _) (Nat.le_refl _) _
      have h7 : W9.heap[w7.heap.size]? = some (.cells (hrow T.1) 25 (0, 0)) := by rw [hX]; exact setRow_heap _ _ _ _ _ _ (heap_push _ _ _)
      have hownO := own_keptH hownO (hb7.trans (hA.mono hb7.size))
      have hoi := own_keptH hoi hA
      have hbel := hbel.trans ((hb7.trans (hA.mono hb7.size)).mono hbel.size)
      obtain ⟨g7, hg7⟩ : ∃ g, w7.heap.size = g := ⟨_, rfl⟩
      rw [hg7] at h7
      simp only [hg7]
      clear hX hA hg7 CT hb7 hb4
      obtain ⟨ab, cb, rfl, hrI, _, _, habI⟩ := own_sliceQ hoi
      have hlo : ∀ g, u3.ownBlock = some g → g < W9.heap.size := fun g h => (hownO.lt g h).2
      have hK := hbel.size
      refine wp_region_stateG (fun D x W => (D 0 = true → x 0 = u3) ∧ (D 1 = true → x 1 = (.slice ab S2.length cb)) ∧ (D 3 = true → x 3 = (.slice a k cap)) ∧ (D 4 = true → x 4 = (.int .i64 (k : Int))) ∧ (D 5 = true → x 5 = (.string Ee)) ∧ (D 6 = true → x 6 = (.string ((⟨#[2]⟩ : ByteArray) ++ Ee))) ∧ (D 7 = true → x 7 = (.agg (hrow T.1))) ∧ (D 8 = true → x 8 = (.string Xx)) ∧ (D 9 = true → x 9 = (.string ((⟨#[2]⟩ : ByteArray) ++ Ee ++ Xx))) ∧ (D 10 = true → D 11 = true ∨ ∃ g, x 10 = .slice (some ⟨g, 0, none⟩) 1 1 ∧ W9.heap.size ≤ g ∧ W.heap[g]? = some (.cells #[.string ((⟨#[2]⟩ : ByteArray) ++ Ee ++ Xx)] 9 (0, 0))) ∧ (D 12 = true → x 12 = x 11) ∧ (D 11 = true → D 2 = true) ∧ (D 12 = true → D 11 = true) ∧ TwoApp w.heap.size u3 S1 S2 ((⟨#[2]⟩ : ByteArray) ++ Ee ++ Xx) (D 2) (D 11) (x 2) (x 11) W ∧ (D 2 = true ∨ RowAt W ab (S2.flatMap sval)) ∧ W.heap[g7]? = some (.cells (hrow T.1) 25 (0, 0)) ∧ Below w.heap.size W9 W) (by kernel_rfl) (by kernel_rfl) (by kernel_rfl) (by kernel_rfl) (fun x => by simp only [fillFrom, Act.put, List.setIfInBounds_toArray, List.set_cons_succ, List.set_cons_zero, Nat.zero_add, Nat.reduceAdd]; rfl) ?_ ?_ ?_
      case refine_1 =>
        exact fun x => ⟨(fun h => by cases h), (fun h => by cases h), (fun h => by cases h), (fun h => by cases h), (fun h => by cases h), (fun h => by cases h), (fun h => by cases h), (fun h => by cases h), (fun h => by cases h), (fun h => by cases h), (fun h => by cases h), (fun h => by cases h), (fun h => by cases h), hownO, .inr (hrI.below (Below.refl _ _).drew), h7, (Below.refl _ _).drew⟩
      case refine_2 =>
        refine ⟨?_, ?_, ?_, ?_, ?_, ?_, ?_, ?_, ?_, ?_, ?_, ?_, ?_, trivial⟩
        · intro D x w' hD hI hw hcl
          obtain ⟨e0, e1, e3, e4, e5, e6, e7, e8, e9, e10, e12, c11, c12, iJ, iR, i7, iB⟩ := hI.out
          clear hw
          go_wp2_with fail
          refine gPost_mk (v := u3) rfl rfl ?_
          exact ⟨⟨(fun _ => rfl), e1, e3, e4, e5, e6, e7, e8, e9, e10, e12, c11, c12, iJ, iR, i7, iB⟩⟩
        · intro D x w' hD hI hw hcl
          obtain ⟨e0, e1, e3, e4, e5, e6, e7, e8, e9, e10, e12, c11, c12, iJ, iR, i7, iB⟩ := hI.out
          clear hw
          go_wp2_with fail
          refine gPost_mk (v := (.slice ab S2.length cb)) rfl rfl ?_
          exact ⟨⟨e0, (fun _ => rfl), e3, e4, e5, e6, e7, e8, e9, e10, e12, c11, c12, iJ, iR, i7, iB⟩⟩
        · intro D x w' hD hI hw hcl
          obtain ⟨e0, e1, e3, e4, e5, e6, e7, e8, e9, e10, e12, c11, c12, iJ, iR, i7, iB⟩ := hI.out
          have d0 : x 0 = u3 := e0 (hw 0 rfl)
          have d1 : x 1 = (.slice ab S2.length cb) := e1 (hw 1 rfl)
          clear hw
          have h11 : D 11 = false := by
            cases h : D 11 with
            | false => rfl
            | true => rw [c11 h] at hD; cases hD
          have hown : w'.ownsRow w.heap.size 9 1 u3 S1.length (S1.flatMap sval) := iJ.one hD h11
          have hrow : RowAt w' ab (S2.flatMap sval) := iR.resolve_left (by rw [hD]; exact Bool.false_ne_true)
          go_wp2_with (at_builtin; refine wpList_append_ownA _ rfl (.tmp 56) (.tmp 57) 80 rfl w.heap.size 9 i1 (.string ⟨#[]⟩) 1 16 Tryd.underlying80 ii1 hz1 hy1 hx1 rfl (by decide) _ _ _ d0 hown ab S2.length cb (S2.flatMap sval) d1 (none_newsA habI) HL2.out (row_newsA hrow habI) (sval_one _) (by unfold maxLen; omega) (by omega) (Nat.le_trans hK iB.size) ?_; intro v2 w2 hown2 hgr2)
          refine gPost_mk (v := v2) rfl rfl ?_
          exact ⟨⟨e0, e1, e3, e4, e5, e6, e7, e8, e9, (fun h => (e10 h).imp id (fun ⟨g, q1, q2, q3⟩ => ⟨g, q1, q2, grown_atC hgr2 q3 (fun e => by have := hlo g (by first | exact own_eq d0 e | exact e.symm); omega)⟩)), e12, (fun _ => rfl), c12, (TwoApp.two h11 hown2), (.inl rfl), (grown_atC hgr2 i7 (fun e => absurd (own_tag hown (by first | exact own_eq d0 e | exact e.symm) i7) (by decide))), (iB.trans (below_grown hown (by first | exact hgr2 | exact grown_eq d0 hgr2) (Nat.le_trans hK iB.size)))⟩⟩
        · intro D x w' hD hI hw hcl
          obtain ⟨e0, e1, e3, e4, e5, e6, e7, e8, e9, e10, e12, c11, c12, iJ, iR, i7, iB⟩ := hI.out
          clear hw
          go_wp2_with fail
          refine gPost_mk (v := (.slice a k cap)) rfl rfl ?_
          exact ⟨⟨e0, e1, (fun _ => rfl), e4, e5, e6, e7, e8, e9, e10, e12, c11, c12, iJ, iR, i7, iB⟩⟩
        · intro D x w' hD hI hw hcl
          obtain ⟨e0, e1, e3, e4, e5, e6, e7, e8, e9, e10, e12, c11, c12, iJ, iR, i7, iB⟩ := hI.out
          have d3 : x 3 = (.slice a k cap) := e3 (hw 3 rfl)
          clear hw
          go_wp2_with fail
          refine gPost_mk (v := (.int .i64 (k : Int))) rfl rfl ?_
          exact ⟨⟨e0, e1, e3, (fun _ => rfl), e5, e6, e7, e8, e9, e10, e12, c11, c12, iJ, iR, i7, iB⟩⟩
        · intro D x w' hD hI hw hcl
          obtain ⟨e0, e1, e3, e4, e5, e6, e7, e8, e9, e10, e12, c11, c12, iJ, iR, i7, iB⟩ := hI.out
          have d4 : x 4 = (.int .i64 (k : Int)) := e4 (hw 4 rfl)
          clear hw
          have CC := CE w'
          go_wp2_with (go_at_call 67; refine (CC).mono ?_; rintro e wx ⟨rfl, hbx⟩)
          refine gPost_mk (v := (.string Ee)) rfl rfl ?_
          exact ⟨⟨e0, e1, e3, e4, (fun _ => rfl), e6, e7, e8, e9, (fun h => (e10 h).imp id (fun ⟨g, q1, q2, q3⟩ => ⟨g, q1, q2, cells_of q3 hbx (Array.getElem?_eq_some_iff.1 q3).1⟩)), e12, c11, c12, (iJ.kept hbx), (iR.imp id (fun h => h.below hbx)), (cells_of i7 hbx (Array.getElem?_eq_some_iff.1 i7).1), (iB.trans (hbx.mono (Nat.le_trans hK iB.size)))⟩⟩
        · intro D x w' hD hI hw hcl
          obtain ⟨e0, e1, e3, e4, e5, e6, e7, e8, e9, e10, e12, c11, c12, iJ, iR, i7, iB⟩ := hI.out
          have d5 : x 5 = (.string Ee) := e5 (hw 5 rfl)
          clear hw
          go_wp2_with fail
          refine gPost_mk (v := (.string ((⟨#[2]⟩ : ByteArray) ++ Ee))) rfl rfl ?_
          exact ⟨⟨e0, e1, e3, e4, e5, (fun _ => rfl), e7, e8, e9, e10, e12, c11, c12, iJ, iR, i7, iB⟩⟩
        · intro D x w' hD hI hw hcl
          obtain ⟨e0, e1, e3, e4, e5, e6, e7, e8, e9, e10, e12, c11, c12, iJ, iR, i7, iB⟩ := hI.out
          clear hw
          have hrg := hrow_range i7
          go_wp2_with (refine wpList_load_mid rfl 25 (.tmp 7) rfl g7 0 rfl T.cells _ hrg Tryd.underlying25 rfl (hash_info T) ?_; rw [H32.row])
          refine gPost_mk (v := (.agg (hrow T.1))) rfl rfl ?_
          exact ⟨⟨e0, e1, e3, e4, e5, e6, (fun _ => rfl), e8, e9, e10, e12, c11, c12, iJ, iR, i7, iB⟩⟩
        · intro D x w' hD hI hw hcl
          obtain ⟨e0, e1, e3, e4, e5, e6, e7, e8, e9, e10, e12, c11, c12, iJ, iR, i7, iB⟩ := hI.out
          have d7 : x 7 = (.agg (hrow T.1)) := e7 (hw 7 rfl)
          clear hw
          have CC := CX w'
          go_wp2_with (go_at_call 69; refine (CC).mono ?_; rintro e wx ⟨rfl, hbx⟩)
          refine gPost_mk (v := (.string Xx)) rfl rfl ?_
          exact ⟨⟨e0, e1, e3, e4, e5, e6, e7, (fun _ => rfl), e9, (fun h => (e10 h).imp id (fun ⟨g, q1, q2, q3⟩ => ⟨g, q1, q2, cells_of q3 hbx (Array.getElem?_eq_some_iff.1 q3).1⟩)), e12, c11, c12, (iJ.kept hbx), (iR.imp id (fun h => h.below hbx)), (cells_of i7 hbx (Array.getElem?_eq_some_iff.1 i7).1), (iB.trans (hbx.mono (Nat.le_trans hK iB.size)))⟩⟩
        · intro D x w' hD hI hw hcl
          obtain ⟨e0, e1, e3, e4, e5, e6, e7, e8, e9, e10, e12, c11, c12, iJ, iR, i7, iB⟩ := hI.out
          have d6 : x 6 = (.string ((⟨#[2]⟩ : ByteArray) ++ Ee)) := e6 (hw 6 rfl)
          have d8 : x 8 = (.string Xx) := e8 (hw 8 rfl)
          clear hw
          go_wp2_with fail
          refine gPost_mk (v := (.string ((⟨#[2]⟩ : ByteArray) ++ Ee ++ Xx))) rfl rfl ?_
          exact ⟨⟨e0, e1, e3, e4, e5, e6, e7, e8, (fun _ => rfl), e10, e12, c11, c12, iJ, iR, i7, iB⟩⟩
        · intro D x w' hD hI hw hcl
          obtain ⟨e0, e1, e3, e4, e5, e6, e7, e8, e9, e10, e12, c11, c12, iJ, iR, i7, iB⟩ := hI.out
          have d9 : x 9 = (.string ((⟨#[2]⟩ : ByteArray) ++ Ee ++ Xx)) := e9 (hw 9 rfl)
          clear hw
          go_wp2_with fail
          have hbx : Below w'.heap.size w' (w'.alloc (.cells #[.string ((⟨#[2]⟩ : ByteArray) ++ Ee ++ Xx)] 9)) := Below.alloc (Below.refl _ _) (Nat.le_refl _) _
          refine gPost_mk (v := .slice (some ⟨w'.heap.size, 0, none⟩) 1 1) rfl rfl ?_
          exact ⟨⟨e0, e1, e3, e4, e5, e6, e7, e8, e9, (fun _ => .inr ⟨w'.heap.size, rfl, iB.size, heap_push w' #[.string ((⟨#[2]⟩ : ByteArray) ++ Ee ++ Xx)] 9⟩), e12, c11, c12, (iJ.kept hbx), (iR.imp id (fun h => h.below hbx)), (cells_of i7 hbx (Array.getElem?_eq_some_iff.1 i7).1), (iB.trans (hbx.mono (Nat.le_trans hK iB.size)))⟩⟩
        · intro D x w' hD hI hw hcl
          obtain ⟨e0, e1, e3, e4, e5, e6, e7, e8, e9, e10, e12, c11, c12, iJ, iR, i7, iB⟩ := hI.out
          have h2 : D 2 = true := hw 2 rfl
          have h12 : D 12 = false := by
            cases h : D 12 with
            | false => rfl
            | true => rw [c12 h] at hD; cases hD
          obtain ⟨g, d10, q2, q3⟩ := (e10 (hw 10 rfl)).resolve_left (by rw [hD]; exact Bool.false_ne_true)
          clear hw
          have hl12 : (S1 ++ S2).length ≤ 2000 := by rw [List.length_append]; omega
          have hown : w'.ownsRow w.heap.size 9 1 (x 2) (S1 ++ S2).length ((S1 ++ S2).flatMap sval) := iJ.mid h2 hD
          go_wp2_with (at_builtin; refine wpList_append_ownA _ rfl (.tmp 58) (.tmp 66) 80 rfl w.heap.size 9 i1 (.string ⟨#[]⟩) 1 16 Tryd.underlying80 ii1 hz1 hy1 hx1 rfl (by decide) _ _ _ rfl hown (some ⟨g, 0, none⟩) 1 1 ([((⟨#[2]⟩ : ByteArray) ++ Ee ++ Xx)].flatMap sval) d10 (fun h => by cases h) rfl (one_strA q3) (sval_one _) (by unfold maxLen; omega) (by omega) (Nat.le_trans hK iB.size) ?_; intro v2 w2 hown2 hgr2)
          refine gPost_mk (v := v2) rfl rfl ?_
          exact ⟨⟨e0, e1, e3, e4, e5, e6, e7, e8, e9, (fun _ => .inl rfl), (fun h => by have h : D 12 = true := h; rw [h12] at h; cases h), (fun _ => h2), (fun h => by have h : D 12 = true := h; rw [h12] at h; cases h), (TwoApp.three hown2), (.inl h2), (grown_atC hgr2 i7 (fun e => absurd (own_tag hown e.symm i7) (by decide))), (iB.trans (below_grown hown hgr2 (Nat.le_trans hK iB.size)))⟩⟩
        · intro D x w' hD hI hw hcl
          obtain ⟨e0, e1, e3, e4, e5, e6, e7, e8, e9, e10, e12, c11, c12, iJ, iR, i7, iB⟩ := hI.out
          have h11 : D 11 = true := hw 11 rfl
          clear hw
          go_wp2_with fail
          refine gPost_mk (v := x 11) rfl rfl ?_
          exact ⟨⟨e0, e1, e3, e4, e5, e6, e7, e8, e9, e10, (fun _ => rfl), c11, (fun _ => h11), iJ, iR, i7, iB⟩⟩
      intro w8 X hI
      obtain ⟨e0, e1, e3, e4, e5, e6, e7, e8, e9, e10, e12, c11, c12, iJ, iR, i7, iB⟩ := hI
      have f12 : X 12 = X 11 := e12 rfl
      have hown8 : w8.ownsRow w.heap.size 9 1 (X 11) (S1 ++ S2 ++ [((⟨#[2]⟩ : ByteArray) ++ Ee ++ Xx)]).length ((S1 ++ S2 ++ [((⟨#[2]⟩ : ByteArray) ++ Ee ++ Xx)]).flatMap sval) := iJ
      have hb8 := iB
      clear e0 e1 e3 e4 e5 e6 e7 e8 e9 e10 e12 c11 c12 iJ iR i7 iB
      obtain ⟨v8, hv8⟩ : ∃ v, X 11 = v := ⟨_, rfl⟩
      rw [hv8] at f12 hown8
      simp only [f12]
      clear hv8
      go_wp2
      go_ret
      refine ⟨_, rfl, ?_, hbel.trans hb8⟩
      rw [HIN.out]
      exact hown8
end Go.Proofs.YtfikbaoiialfeaaDoor
namespace Go.Proofs.YtfikbaoiialfeaaDoor
open Go.RowKit
attribute [local go_sem] strV
set_option linter.unusedVariables false
/-- The strings of a proof's first k leaves. -/
def shownS (ct : Int) (xs : List LeafV) (k : Nat) : List ByteArray := strsB ([rootT 0 zeroH] ++ (xs.take k).flatMap (leafShown ct))
theorem shownS_all (ct : Int) (xs : List LeafV) {n : Nat} (hn : xs.length ≤ n) : shownS ct xs n = strsB (shownT ct xs) := by unfold shownS shownT; rw [List.take_of_length_le hn]
theorem shownS_step {ct : Int} {xs : List LeafV} {k : Nat} (hk : k < xs.length) : shownS ct xs (k + 1) = shownS ct xs k ++ strsB (leafShown ct xs[k]) := by
  unfold shownS
  rw [List.take_succ_eq_append_getElem hk, List.flatMap_append, ← List.append_assoc, strsB_app]
  simp
theorem hrow_zero : hrow zeroH.1 = #[.int .u8 0, .int .u8 0, .int .u8 0, .int .u8 0, .int .u8 0, .int .u8 0, .int .u8 0, .int .u8 0, .int .u8 0, .int .u8 0, .int .u8 0, .int .u8 0, .int .u8 0, .int .u8 0, .int .u8 0, .int .u8 0, .int .u8 0, .int .u8 0, .int .u8 0, .int .u8 0, .int .u8 0, .int .u8 0, .int .u8 0, .int .u8 0, .int .u8 0, .int .u8 0, .int .u8 0, .int .u8 0, .int .u8 0, .int .u8 0, .int .u8 0, .int .u8 0] := by rfl
set_option maxRecDepth 100000 in
set_option maxHeartbeats 12800000 in
theorem shown_any (ct : Int) (a : Option Addr) (n cap : Nat) (xs : List LeafV) (w : World) (h : LvsAt w a xs) (hn : xs.length = n) (hnc : n ≤ cap) (hcm : cap ≤ maxLen) (hM : mayPfB ct xs = true) :
    Calls Tryd.prog 61 #[.agg #[.int .i64 ct, .slice a n cap]] w fun e w' => ∃ v, e = .returned v ∧ w'.ownsRow w.heap.size 9 1 v (strsB (shownT ct xs)).length ((strsB (shownT ct xs)).flatMap sval) ∧ Below w.heap.size w w' := by
  obtain ⟨c1, c2, c3⟩ := may_few hM
  obtain ⟨N, rfl⟩ : ∃ m : Nat, ct = m := ⟨ct.toNat, by omega⟩
  have hN0 : (0 : Int) ≤ (N : Int) := by omega
  have hn2 : n ≤ 2 := by omega
  have HN := Lib.hid hn
  have HM := Lib.hid hM
  have CM := fun W (hb : Below w.heap.size w W) => refMayPf_any (N : Int) a n cap xs W (h.below hb) hn (Nat.le_trans hnc hcm)
  rw [hM] at CM
  clear hn hM c1 c3
  obtain ⟨i0, ii, hz0, hz1, hz2⟩ := info_parts Tryd.infoSt
  have g0 := heap_push w #[.int .i64 (N : Int), .slice a n cap] 46
  have hbA : Below w.heap.size w (w.alloc (.cells #[.int .i64 (N : Int), .slice a n cap] 46)) := Below.alloc (Below.refl _ _) (Nat.le_refl _) _
  have CE0 := fun W => refEight_any 0 W
  unfold strV at CE0
  have CX0 := fun W => refText_any W zeroH.1 zeroH.2
  rw [show (⟨zeroH.1.toArray⟩ : ByteArray) = strB zeroH.1 from rfl, hrow_zero] at CX0
  have hS0 : shownS (N : Int) xs 0 = [(⟨#[2]⟩ : ByteArray) ++ ⟨(eightL 0).toArray⟩ ++ strB zeroH.1] := by
    show [strB (rootT 0 zeroH)] = _
    rw [rootT_str]
  have hX0s : (strB zeroH.1).size = 32 := by rw [strB_size]; exact zeroH.2
  have hE0s : (⟨(eightL 0).toArray⟩ : ByteArray).size ≤ 8 := eightL_le 0
  obtain ⟨E0, hE0⟩ : ∃ E : ByteArray, (⟨(eightL 0).toArray⟩ : ByteArray) = E := ⟨_, rfl⟩
  obtain ⟨X0, hX0⟩ : ∃ E : ByteArray, strB zeroH.1 = E := ⟨_, rfl⟩
  simp only [hE0] at CE0 hS0 hE0s
  simp only [hX0] at CX0 hS0 hX0s
  have h1s : (⟨#[2]⟩ : ByteArray).size = 1 := rfl
  have hcat1 : ¬ 9223372036854775807 < (⟨#[2]⟩ : ByteArray).size + E0.size := by omega
  have hcat2 : ¬ 9223372036854775807 < ((⟨#[2]⟩ : ByteArray) ++ E0).size + X0.size := by rw [ByteArray.size_append]; omega
  have hcat3 : ¬ 9223372036854775807 < 1 + E0.size := by omega
  have hcat4 : ¬ 9223372036854775807 < 1 + E0.size + X0.size := by omega
  have hcat5 : ¬ 9223372036854775807 < (⟨#[2]⟩ : ByteArray).size + E0.size + X0.size := by omega
  have HS0 := Lib.hid hS0
  clear hE0 hX0 hX0s hE0s hS0 h1s
  go_enter Tryd.func61, Tryd.ntmps61
  go_upto_region 1 with fail
  refine wp_nameE _ (fun W1 hX => ?_)
  have hP1 : W1.heap[w.heap.size]? = some (.cells #[.int .i64 (N : Int), .slice a n cap] 46 (0, 0)) := by rw [hX]; exact g0
  have hb1 : Below w.heap.size w W1 := by rw [hX]; exact hbA
  clear hX g0 hbA
  have hPl := (Array.getElem?_eq_some_iff.1 hP1).1
  have hbW := Below.refl W1.heap.size W1
  go_upto_region 2 with (first | (go_at_call 67; refine (CE0 _).mono ?_; rintro e w2 ⟨rfl, hb⟩; have hbW := hbW.trans (hb.mono hbW.size); clear hb) | (go_at_call 69; refine (CX0 _).mono ?_; rintro e w2 ⟨rfl, hb⟩; have hbW := hbW.trans (hb.mono hbW.size); clear hb))
  refine wp_nameE _ (fun W2 hX => ?_)
  have hown : W2.ownsRow W1.heap.size 9 1 (.slice (some ⟨w2.heap.size, 0, none⟩) 1 1) (shownS (N : Int) xs 0).length ((shownS (N : Int) xs 0).flatMap sval) := by
    rw [hX, HS0.out]
    exact World.ownsRow_lit w2 #[.string ((⟨#[2]⟩ : ByteArray) ++ E0 ++ X0)] 1 hbW.size (by unfold maxLen; omega) rfl
  have hbW : Below W1.heap.size W1 W2 := by rw [hX]; exact hbW.alloc hbW.size _
  clear hX
  have hP := cells_of hP1 hbW hPl
  have p0 := cell_heap hP 0
  have p1 := cell_heap hP 1
  have hbel := hb1.trans (hbW.mono hb1.size)
  obtain ⟨v0, hv0⟩ : ∃ v, Value.slice (some ⟨w2.heap.size, 0, none⟩) 1 1 = v := ⟨_, rfl⟩
  rw [hv0] at hown
  simp only [hv0]
  clear hv0
  go_upto_region 5 with (go_at_call 46; refine (CM _ hbel).mono ?_; rintro e w3 ⟨rfl, hb⟩; have hbW := hbW.trans (hb.mono hbW.size); have hown := own_keptH hown hb; clear hb)
  clear CM CE0 CX0 p0 p1 hP hbel hcat1 hcat2 hcat3 hcat4 hcat5 HS0
  go_loopw [3, 4] (fun v i wr => ∃ k : Nat, k ≤ n ∧ i = .int .i64 k ∧ wr.ownsRow W1.heap.size 9 1 v (shownS (N : Int) xs k).length ((shownS (N : Int) xs k).flatMap sval) ∧ (shownS (N : Int) xs k).length ≤ 1 + 40 * k ∧ Below W1.heap.size W1 wr) (fun _ i _ => n - (intOf i).toNat)
  case atStart => exact ⟨0, Nat.zero_le _, rfl, hown, by simp [shownS, strsB_len], hbW⟩
  case round =>
    clear hown hbW
    obtain ⟨k, hk, rfl, hown, hlen, hbW⟩ := hrel
    have hP := cells_of hP1 hbW hPl
    have p0 := cell_heap hP 0
    have p1 := cell_heap hP 1
    by_cases hlt : k < n
    rotate_left
    · have d9 : decide ((k : Int) < (n : Int)) = false := decide_eq_false (by omega)
      have d9n : decide (k < n) = false := decide_eq_false hlt
      rw [shownS_all _ _ (by rw [HN.out]; omega)] at hown
      go_wp2
      go_ret
      exact ⟨_, rfl, own_lower hown hb1.size, hb1.trans (hbW.mono hb1.size)⟩
    have d1 : decide ((k : Int) < (n : Int)) = true := decide_eq_true (by omega)
    have d1n : decide (k < n) = true := decide_eq_true hlt
    have hkl : k < xs.length := by rw [HN.out]; exact hlt
    have hLw := h.below (hb1.trans (hbW.mono hb1.size))
    obtain ⟨b1, o1, rfl, hb9, hg1⟩ := lv_range hLw.row hkl
    have hxk := h.each xs[k] (List.getElem_mem hkl)
    have hfit := may_leaf HM.out (List.getElem_mem hkl)
    have hstep := shownS_step (ct := (N : Int)) hkl
    obtain ⟨lf, hx9⟩ : ∃ p, xs[k] = p := ⟨_, rfl⟩
    rw [hx9] at hg1 hxk hfit hstep
    obtain ⟨ky, vl, ix, pa, pn, pc, WL⟩ := lf
    obtain ⟨I, rfl⟩ : ∃ m : Nat, ix = m := ⟨ix.toNat, by have := hfit.2.2.2.2.1; show ix = _; exact (Int.toNat_of_nonneg this).symm⟩
    have hk1 : ky.size ≤ 160 := hfit.1
    have hk2 : vl.size ≤ 64 := hfit.2.1
    have hIN : I < N := by have h9 : ((I : Nat) : Int) < (N : Int) := hfit.2.2.2.2.2.1; omega
    have hN3 : N ≤ 1073741824 := by omega
    have hpd : WL.length = deepN N I := by
      have m7 : ((WL.length : Nat) : Int) = deepI (N : Int) (I : Int) := hfit.2.2.2.2.2.2
      unfold deepI at m7
      rw [insB_iff.2 ⟨by omega, by omega, by omega⟩] at m7
      have h8 : (WL.length : Int) = (deepN N I : Nat) := by simpa using m7
      omega
    have hp1 : WL.length = pn := hxk.len
    have hp2 : pn ≤ pc := hxk.cap
    have hp3 : pc ≤ maxLen := hxk.capM
    have hprow : RowAt w pa (WL.flatMap H32.cells) := hxk.row
    unfold leafShown at hstep
    simp only [Int.toNat_natCast] at hstep
    have n0 : (0 : Int) ≤ (k : Int) := by omega
    have n1 : (k : Int) < (n : Int) := by omega
    have n2 : ((k : Nat) : Int).toNat = k := by omega
    have hone : (#[.string ky, .string vl, .int .i64 (I : Int), .slice pa pn pc] : Array Value).all (·.oneCell') = true := by simp [Value.oneCell']
    have hg2 : wr.rangeAt b1 (o1 + k * 4) ((#[.string ky, .string vl, .int .i64 (I : Int), .slice pa pn pc] : Array Value).toList) := hg1
    clear hx9 hLw hg1 hfit hxk
    go_upto_region 8 with (first | (refine wpList_load_mid rfl 94 (.tmp 28) rfl b1 _ rfl ((#[.string ky, .string vl, .int .i64 (I : Int), .slice pa pn pc] : Array Value).toList) _ hg2 Tryd.underlying94 rfl (by rfl) ?_) | (refine wpList_storeRowTo (Z := #[.string ky, .string vl, .int .i64 (I : Int), .slice pa pn pc]) rfl (.tmp 5) (.tmp 29) 94 rfl (by kernel_rfl) rfl (by rfl) (heap_push _ _ _) rfl hone ?_))
    refine wp_nameE _ (fun W7 hX => ?_)
    have hA : Below wr.heap.size wr W7 := by rw [hX]; exact below_setRow (Below.alloc (Below.refl _ _) (Nat.le_refl _) _) (Nat.le_refl _) _
    have h5 : W7.heap[wr.heap.size]? = some (.cells #[.string ky, .string vl, .int .i64 (I : Int), .slice pa pn pc] 94 (0, 0)) := by rw [hX]; exact setRow_heap _ _ _ _ _ _ (heap_push _ _ _)
    have hown := own_keptH hown hA
    have hK5 : W1.heap.size ≤ wr.heap.size := hbW.size
    have hbW := hbW.trans (hA.mono hbW.size)
    obtain ⟨g5, hg5⟩ : ∃ g, wr.heap.size = g := ⟨_, rfl⟩
    rw [hg5] at h5 hK5
    simp only [hg5]
    clear hX hA hg5 hP p0 p1 hg2
    have h5l := (Array.getElem?_eq_some_iff.1 h5).1
    have CEl := fun W => refEight_any (ky.size : Int) W
    unfold strV at CEl
    have CEn := fun W => refEight_any (N : Int) W
    unfold strV at CEn
    rw [strsB_app, strsB_app, show strsB [leafT ky vl] = [strB (leafT ky vl)] from rfl, leafT_str] at hstep
    obtain ⟨q, hq⟩ : ∃ q : H32, leafD ⟨ky, vl, ((I : Nat) : Int), WL⟩ = q := ⟨_, rfl⟩
    have hqe : leafF ky vl = q.1 := by rw [← hq]; rfl
    have hstep : shownS (N : Int) xs (k + 1) = shownS (N : Int) xs k ++ ([(⟨#[0]⟩ : ByteArray) ++ ⟨(eightL ky.size).toArray⟩ ++ ky ++ vl] ++ strsB (wayT N I q WL) ++ [strB (rootT (N : Int) (foldH N I q WL))]) := by rw [← hq]; exact hstep
    have CLf := fun W => refLeaf_any ky vl W (by omega) (by omega)
    simp only [hqe] at CLf
    rw [rootT_str] at hstep
    have CW := fun W (hb : Below w.heap.size w W) => wayT_any N I q WL pa pn pc W hIN hN3 hpd hp1 hp2 hp3 (hprow.below hb)
    unfold WayTPost at CW
    have LW := wayT_len N I q WL hIN
    have LD := deepN_30 (n := N) (i := I) hN3
    obtain ⟨FX, hFX⟩ : ∃ F, foldH N I q WL = F := ⟨_, rfl⟩
    have LP := strsB_len (wayT N I q WL)
    obtain ⟨PS, hPS⟩ : ∃ P, strsB (wayT N I q WL) = P := ⟨_, rfl⟩
    simp only [hFX, hPS] at CW hstep
    rw [hPS] at LP
    have hlp : PS.length ≤ 30 := by omega
    have CX := fun W => refText_any W FX.1 FX.2
    rw [show (⟨FX.1.toArray⟩ : ByteArray) = strB FX.1 from rfl] at CX
    have hXs : (strB FX.1).size = 32 := by rw [strB_size]; exact FX.2
    have hEs : (⟨(eightL (N : Int)).toArray⟩ : ByteArray).size ≤ 8 := eightL_le _
    have hLs : (⟨(eightL (ky.size : Int)).toArray⟩ : ByteArray).size ≤ 8 := eightL_le _
    obtain ⟨El, hEl⟩ : ∃ E : ByteArray, (⟨(eightL (ky.size : Int)).toArray⟩ : ByteArray) = E := ⟨_, rfl⟩
    simp only [hEl] at CEl hstep hLs
    obtain ⟨Ee, hE⟩ : ∃ E : ByteArray, (⟨(eightL (N : Int)).toArray⟩ : ByteArray) = E := ⟨_, rfl⟩
    simp only [hE] at CEn hstep hEs
    obtain ⟨Xx, hX9⟩ : ∃ E : ByteArray, strB FX.1 = E := ⟨_, rfl⟩
    simp only [hX9] at CX hstep hXs
    have h1s : (⟨#[2]⟩ : ByteArray).size = 1 := rfl
    have h0s : (⟨#[0]⟩ : ByteArray).size = 1 := rfl
    have hcat1 : ¬ 9223372036854775807 < (⟨#[2]⟩ : ByteArray).size + Ee.size := by omega
    have hcat2 : ¬ 9223372036854775807 < ((⟨#[2]⟩ : ByteArray) ++ Ee).size + Xx.size := by rw [ByteArray.size_append]; omega
    have hcat3 : ¬ 9223372036854775807 < 1 + Ee.size := by omega
    have hcat4 : ¬ 9223372036854775807 < 1 + Ee.size + Xx.size := by omega
    have hcat5 : ¬ 9223372036854775807 < (⟨#[2]⟩ : ByteArray).size + Ee.size + Xx.size := by omega
    have kcat1 : ¬ 9223372036854775807 < (⟨#[0]⟩ : ByteArray).size + El.size := by omega
    have kcat2 : ¬ 9223372036854775807 < ((⟨#[0]⟩ : ByteArray) ++ El).size + ky.size := by rw [ByteArray.size_append]; omega
    have kcat3 : ¬ 9223372036854775807 < (((⟨#[0]⟩ : ByteArray) ++ El) ++ ky).size + vl.size := by rw [ByteArray.size_append, ByteArray.size_append]; omega
    have kcat4 : ¬ 9223372036854775807 < (⟨#[0]⟩ : ByteArray).size + El.size + ky.size := by omega
    have kcat5 : ¬ 9223372036854775807 < (⟨#[0]⟩ : ByteArray).size + El.size + ky.size + vl.size := by omega
    have kcat6 : ¬ 9223372036854775807 < 1 + El.size + ky.size := by omega
    have kcat7 : ¬ 9223372036854775807 < 1 + El.size + ky.size + vl.size := by omega
    have kcat8 : ¬ 9223372036854775807 < 1 + El.size := by omega
    have HST := Lib.hid hstep
    clear hstep hq hqe hFX hPS hEl hE hX9 h1s h0s hXs hEs hLs LW LD LP hpd
    obtain ⟨S0, hS0⟩ : ∃ S, shownS (N : Int) xs k = S := ⟨_, rfl⟩
    rw [hS0] at hown hlen
    have HS0 := Lib.hid hS0
    clear hS0
    refine wp_region_facts_chain 13 (by decide) [Fact.eq (u3), Fact.eq (.pointer (some ⟨g5, 0, none⟩)), Fact.eq (.string ky), Fact.eq (.int .i64 (ky.size : Int)), Fact.eq (.string El), Fact.eq (.string ((⟨#[0]⟩ : ByteArray) ++ El)), Fact.eq (.pointer (some ⟨g5, 0, none⟩)), Fact.eq (.string ky), Fact.eq (.string ((⟨#[0]⟩ : ByteArray) ++ El ++ ky)), Fact.eq (.pointer (some ⟨g5, 1, none⟩)), Fact.eq (.string vl), Fact.eq (.string ((⟨#[0]⟩ : ByteArray) ++ El ++ ky ++ vl)), Fact.row (1) ([((⟨#[0]⟩ : ByteArray) ++ El ++ ky ++ vl)].flatMap sval)] (by kernel_rfl) (by kernel_rfl) (by kernel_rfl) (by kernel_rfl) (by kernel_rfl) (by kernel_rfl) (by kernel_rfl) (fun x => by simp only [List.take_succ_cons, List.take_zero, fillFrom, Act.put, List.setIfInBounds_toArray, List.set_cons_succ, List.set_cons_zero]; rfl) ?_ ?_
    · refine ⟨?_, ?_, ?_, ?_, ?_, ?_, ?_, ?_, ?_, ?_, ?_, ?_, ?_, trivial⟩
      · intro x w' hbw hd
        clear hd
        go_wp2_with fail
        exact frPost_mk rfl (by repeat (first | assumption | exact Below.refl _ _ | refine bch ?_ (by assumption) | refine Below.alloc ?_ (by simp) _)) rfl
      · intro x w' hbw hd
        clear hd
        go_wp2_with fail
        exact frPost_mk rfl (by repeat (first | assumption | exact Below.refl _ _ | refine bch ?_ (by assumption) | refine Below.alloc ?_ (by simp) _)) rfl
      · intro x w' hbw hd
        have d1 : x 1 = .pointer (some ⟨g5, 0, none⟩) := hd 1 rfl
        clear hd
        have cq : w'.cell? ⟨g5, 0, none⟩ = some (.string ky) := cell_heap (cells_of h5 hbw h5l) 0
        go_wp2_with (first | fail)
        exact frPost_mk rfl (by repeat (first | assumption | exact Below.refl _ _ | refine bch ?_ (by assumption) | refine Below.alloc ?_ (by simp) _)) rfl
      · intro x w' hbw hd
        have d2 : x 2 = .string ky := hd 2 rfl
        clear hd
        go_wp2_with fail
        exact frPost_mk rfl (by repeat (first | assumption | exact Below.refl _ _ | refine bch ?_ (by assumption) | refine Below.alloc ?_ (by simp) _)) rfl
      · intro x w' hbw hd
        have d3 : x 3 = .int .i64 (ky.size : Int) := hd 3 rfl
        clear hd
        have CC := CEl w'
        go_wp2_with (first | (go_at_call 67; refine CC.mono ?_; rintro e wx ⟨rfl, hbx⟩))
        exact frPost_mk rfl (by repeat (first | assumption | exact Below.refl _ _ | refine bch ?_ (by assumption) | refine Below.alloc ?_ (by simp) _)) rfl
      · intro x w' hbw hd
        have d4 : x 4 = .string El := hd 4 rfl
        clear hd
        go_wp2_with fail
        exact frPost_mk rfl (by repeat (first | assumption | exact Below.refl _ _ | refine bch ?_ (by assumption) | refine Below.alloc ?_ (by simp) _)) rfl
      · intro x w' hbw hd
        clear hd
        go_wp2_with fail
        exact frPost_mk rfl (by repeat (first | assumption | exact Below.refl _ _ | refine bch ?_ (by assumption) | refine Below.alloc ?_ (by simp) _)) rfl
      · intro x w' hbw hd
        have d6 : x 6 = .pointer (some ⟨g5, 0, none⟩) := hd 6 rfl
        clear hd
        have cq : w'.cell? ⟨g5, 0, none⟩ = some (.string ky) := cell_heap (cells_of h5 hbw h5l) 0
        go_wp2_with (first | fail)
        exact frPost_mk rfl (by repeat (first | assumption | exact Below.refl _ _ | refine bch ?_ (by assumption) | refine Below.alloc ?_ (by simp) _)) rfl
      · intro x w' hbw hd
        have d5 : x 5 = .string ((⟨#[0]⟩ : ByteArray) ++ El) := hd 5 rfl
        have d7 : x 7 = .string ky := hd 7 rfl
        clear hd
        go_wp2_with fail
        exact frPost_mk rfl (by repeat (first | assumption | exact Below.refl _ _ | refine bch ?_ (by assumption) | refine Below.alloc ?_ (by simp) _)) rfl
      · intro x w' hbw hd
        clear hd
        go_wp2_with fail
        exact frPost_mk rfl (by repeat (first | assumption | exact Below.refl _ _ | refine bch ?_ (by assumption) | refine Below.alloc ?_ (by simp) _)) rfl
      · intro x w' hbw hd
        have d9 : x 9 = .pointer (some ⟨g5, 1, none⟩) := hd 9 rfl
        clear hd
        have cq : w'.cell? ⟨g5, 1, none⟩ = some (.string vl) := cell_heap (cells_of h5 hbw h5l) 1
        go_wp2_with (first | fail)
        exact frPost_mk rfl (by repeat (first | assumption | exact Below.refl _ _ | refine bch ?_ (by assumption) | refine Below.alloc ?_ (by simp) _)) rfl
      · intro x w' hbw hd
        have d8 : x 8 = .string ((⟨#[0]⟩ : ByteArray) ++ El ++ ky) := hd 8 rfl
        have d10 : x 10 = .string vl := hd 10 rfl
        clear hd
        go_wp2_with fail
        exact frPost_mk rfl (by repeat (first | assumption | exact Below.refl _ _ | refine bch ?_ (by assumption) | refine Below.alloc ?_ (by simp) _)) rfl
      · intro x w' hbw hd
        have d11 : x 11 = .string ((⟨#[0]⟩ : ByteArray) ++ El ++ ky ++ vl) := hd 11 rfl
        clear hd
        go_wp2_with fail
        refine frPost_mk rfl (by repeat (first | assumption | exact Below.refl _ _ | refine bch ?_ (by assumption) | refine Below.alloc ?_ (by simp) _)) ?_; show (Fact.row (1) ([((⟨#[0]⟩ : ByteArray) ++ El ++ ky ++ vl)].flatMap sval)).holds _ _; exact ⟨_, _, rfl, row_newH _ _ _⟩
    · intro x w' hbw hall
      have hx0 : x 0 = u3 := hall 0 (by decide)
      obtain ⟨a9, c9, hx12, hr9⟩ := (show (Fact.row (1) ([((⟨#[0]⟩ : ByteArray) ++ El ++ ky ++ vl)].flatMap sval)).holds (x 12) w' from hall 12 (by decide))
      clear hall
      have hown := own_keptH hown hbw
      have hbW := hbW.trans (hbw.mono hbW.size)
      have h5 := cells_of h5 hbw h5l
      rcases hr9 with hr9 | ⟨b9, o9, rfl, hb9, hc9⟩
      · have := sval_flat_len [((⟨#[0]⟩ : ByteArray) ++ El ++ ky ++ vl)]; rw [hr9] at this; simp at this
      have hnews : ∀ j u, ([((⟨#[0]⟩ : ByteArray) ++ El ++ ky ++ vl)].flatMap sval)[j]? = some u → w'.cell? ((⟨b9, o9, none⟩ : Addr).add j) = some u := fun j u hj => by
        rw [Addr.add_mid, hc9 j (List.getElem?_eq_some_iff.1 hj).1, hj]
      simp only [hx0, hx12, List.drop_succ_cons, List.drop_zero]
      go_upto_region 9 with (at_builtin; refine wpList_append_ownA _ rfl (.tmp 30) (.tmp 42) 80 rfl W1.heap.size 9 i0 (.string ⟨#[]⟩) 1 16 Tryd.underlying80 ii hz0 hz1 hz2 rfl (by decide) _ _ _ rfl hown (some ⟨b9, o9, none⟩) 1 c9 ([((⟨#[0]⟩ : ByteArray) ++ El ++ ky ++ vl)].flatMap sval) rfl (fun h => by cases h) rfl (fun ad e j u hu => by obtain rfl := Option.some.inj e; exact hnews j u hu) (sval_one _) (by unfold maxLen; omega) (by omega) hbW.size ?_; intro v6 w6 hown6 hgr6)
      obtain ⟨W8, hW8e⟩ : ∃ W, w6 = W := ⟨_, rfl⟩
      have hb6 := below_grown hown hgr6 hbW.size
      have h5 := grown_atC hgr6 h5 (fun e => absurd (own_tag hown e.symm h5) (by decide))
      have hbW := hbW.trans hb6
      rw [hW8e] at hown6 h5 hbW hgr6
      simp only [hW8e]
      clear hW8e hb6
      have hP := cells_of hP1 hbW hPl
      have hPl8 := (Array.getElem?_eq_some_iff.1 hP).1
      have h5l8 := (Array.getElem?_eq_some_iff.1 h5).1
      have hK8 := hbW.size
      have hbel8 := hb1.trans (hbW.mono hb1.size)
      refine wp_region_facts_tail 17 rfl [Fact.eq (.pointer (some ⟨w.heap.size, 0, none⟩)), Fact.eq (.int .i64 (N : Int)), Fact.eq (.pointer (some ⟨g5, 2, none⟩)), Fact.eq (.int .i64 (I : Int)), Fact.eq (.pointer (some ⟨g5, 0, none⟩)), Fact.eq (.string ky), Fact.eq (.pointer (some ⟨g5, 1, none⟩)), Fact.eq (.string vl), Fact.eq (.agg (hrow q.1)), Fact.eq (.pointer (some ⟨g5, 3, none⟩)), Fact.eq (.slice pa pn pc), (Fact.wayT W1.heap.size PS FX), (Fact.wayT W1.heap.size PS FX), (Fact.strs W1.heap.size PS), Fact.eq (.agg (hrow FX.1)), Fact.cell W8.heap.size, (Fact.strs W1.heap.size PS)] (by kernel_rfl) (by kernel_rfl) (by kernel_rfl) (by kernel_rfl) (by kernel_rfl) (fun x => by simp only [List.take_succ_cons, List.take_zero, fillFrom, Act.put, List.setIfInBounds_toArray, List.set_cons_succ, List.set_cons_zero]; rfl) ?_ ?_
      · refine ⟨?_, ?_, ?_, ?_, ?_, ?_, ?_, ?_, ?_, ?_, ?_, ?_, ?_, ?_, ?_, ?_, ?_, trivial⟩
        · intro x w' hbw hd
          clear hd
          go_wp2_with fail
          exact frPost_mk rfl (by repeat (first | assumption | exact Below.refl _ _ | refine bch ?_ (by assumption) | refine Below.alloc ?_ (by simp) _)) rfl
        · intro x w' hbw hd
          have d0 : x 0 = .pointer (some ⟨w.heap.size, 0, none⟩) := hd 0 rfl
          clear hd
          have cq : w'.cell? ⟨w.heap.size, 0, none⟩ = some (.int .i64 (N : Int)) := cell_heap (cells_of hP hbw hPl8) 0
          go_wp2_with (first | fail)
          exact frPost_mk rfl (by repeat (first | assumption | exact Below.refl _ _ | refine bch ?_ (by assumption) | refine Below.alloc ?_ (by simp) _)) rfl
        · intro x w' hbw hd
          clear hd
          go_wp2_with fail
          exact frPost_mk rfl (by repeat (first | assumption | exact Below.refl _ _ | refine bch ?_ (by assumption) | refine Below.alloc ?_ (by simp) _)) rfl
        · intro x w' hbw hd
          have d2 : x 2 = .pointer (some ⟨g5, 2, none⟩) := hd 2 rfl
          clear hd
          have cq : w'.cell? ⟨g5, 2, none⟩ = some (.int .i64 (I : Int)) := cell_heap (cells_of h5 hbw h5l8) 2
          go_wp2_with (first | fail)
          exact frPost_mk rfl (by repeat (first | assumption | exact Below.refl _ _ | refine bch ?_ (by assumption) | refine Below.alloc ?_ (by simp) _)) rfl
        · intro x w' hbw hd
          clear hd
          go_wp2_with fail
          exact frPost_mk rfl (by repeat (first | assumption | exact Below.refl _ _ | refine bch ?_ (by assumption) | refine Below.alloc ?_ (by simp) _)) rfl
        · intro x w' hbw hd
          have d4 : x 4 = .pointer (some ⟨g5, 0, none⟩) := hd 4 rfl
          clear hd
          have cq : w'.cell? ⟨g5, 0, none⟩ = some (.string ky) := cell_heap (cells_of h5 hbw h5l8) 0
          go_wp2_with (first | fail)
          exact frPost_mk rfl (by repeat (first | assumption | exact Below.refl _ _ | refine bch ?_ (by assumption) | refine Below.alloc ?_ (by simp) _)) rfl
        · intro x w' hbw hd
          clear hd
          go_wp2_with fail
          exact frPost_mk rfl (by repeat (first | assumption | exact Below.refl _ _ | refine bch ?_ (by assumption) | refine Below.alloc ?_ (by simp) _)) rfl
        · intro x w' hbw hd
          have d6 : x 6 = .pointer (some ⟨g5, 1, none⟩) := hd 6 rfl
          clear hd
          have cq : w'.cell? ⟨g5, 1, none⟩ = some (.string vl) := cell_heap (cells_of h5 hbw h5l8) 1
          go_wp2_with (first | fail)
          exact frPost_mk rfl (by repeat (first | assumption | exact Below.refl _ _ | refine bch ?_ (by assumption) | refine Below.alloc ?_ (by simp) _)) rfl
        · intro x w' hbw hd
          have d5 : x 5 = .string ky := hd 5 rfl
          have d7 : x 7 = .string vl := hd 7 rfl
          clear hd
          have CC := CLf w'
          go_wp2_with (first | (go_at_call 13; refine CC.mono ?_; rintro e wx ⟨rfl, hbx⟩))
          exact frPost_mk rfl (by repeat (first | assumption | exact Below.refl _ _ | refine bch ?_ (by assumption) | refine Below.alloc ?_ (by simp) _)) rfl
        · intro x w' hbw hd
          clear hd
          go_wp2_with fail
          exact frPost_mk rfl (by repeat (first | assumption | exact Below.refl _ _ | refine bch ?_ (by assumption) | refine Below.alloc ?_ (by simp) _)) rfl
        · intro x w' hbw hd
          have d9 : x 9 = .pointer (some ⟨g5, 3, none⟩) := hd 9 rfl
          clear hd
          have cq : w'.cell? ⟨g5, 3, none⟩ = some (.slice pa pn pc) := cell_heap (cells_of h5 hbw h5l8) 3
          go_wp2_with (first | fail)
          exact frPost_mk rfl (by repeat (first | assumption | exact Below.refl _ _ | refine bch ?_ (by assumption) | refine Below.alloc ?_ (by simp) _)) rfl
        · intro x w' hbw hd
          have d1 : x 1 = .int .i64 (N : Int) := hd 1 rfl
          have d3 : x 3 = .int .i64 (I : Int) := hd 3 rfl
          have d8 : x 8 = .agg (hrow q.1) := hd 8 rfl
          have d10 : x 10 = .slice pa pn pc := hd 10 rfl
          clear hd
          have CC := CW w' (hbel8.trans (hbw.mono hbel8.size))
          go_wp2_with (first | (go_at_call 97; refine CC.mono ?_; rintro e wx ⟨vx, rfl, hox, hbx⟩))
          refine frPost_mk rfl (by repeat (first | assumption | exact Below.refl _ _ | refine bch ?_ (by assumption) | refine Below.alloc ?_ (by simp) _)) ?_; exact ⟨vx, rfl, own_lower hox (Nat.le_trans hK8 hbw.size)⟩
        · intro x w' hbw hd
          obtain ⟨v11, d11, o11⟩ := (show (Fact.wayT W1.heap.size PS FX).holds (x 11) w' from hd 11 rfl)
          clear hd
          go_wp2_with fail
          exact frPost_mk rfl (by repeat (first | assumption | exact Below.refl _ _ | refine bch ?_ (by assumption) | refine Below.alloc ?_ (by simp) _)) ⟨_, rfl, o11⟩
        · intro x w' hbw hd
          obtain ⟨v12, d12, o12⟩ := (show (Fact.wayT W1.heap.size PS FX).holds (x 12) w' from hd 12 rfl)
          clear hd
          go_wp2_with fail
          exact frPost_mk rfl (by repeat (first | assumption | exact Below.refl _ _ | refine bch ?_ (by assumption) | refine Below.alloc ?_ (by simp) _)) o12
        · intro x w' hbw hd
          obtain ⟨v12, d12, o12⟩ := (show (Fact.wayT W1.heap.size PS FX).holds (x 12) w' from hd 12 rfl)
          clear hd
          go_wp2_with fail
          exact frPost_mk rfl (by repeat (first | assumption | exact Below.refl _ _ | refine bch ?_ (by assumption) | refine Below.alloc ?_ (by simp) _)) rfl
        · intro x w' hbw hd
          clear hd
          go_wp2_with fail
          refine frPost_mk rfl (by repeat (first | assumption | exact Below.refl _ _ | refine bch ?_ (by assumption) | refine Below.alloc ?_ (by simp) _)) ?_; show (Fact.cell W8.heap.size).holds _ _; exact ⟨_, rfl, hbw.size, heap_pushF _ _ _⟩
        · intro x w' hbw hd
          have o13 : (Fact.strs W1.heap.size PS).holds (x 13) w' := hd 13 rfl
          clear hd
          go_wp2_with fail
          exact frPost_mk rfl (by repeat (first | assumption | exact Below.refl _ _ | refine bch ?_ (by assumption) | refine Below.alloc ?_ (by simp) _)) o13
      · intro x w' hbw hall
        have hx14 : x 14 = .agg (hrow FX.1) := hall 14 (by decide)
        obtain ⟨g7, hx15, hBg, hgz⟩ := (show (Fact.cell W8.heap.size).holds (x 15) w' from hall 15 (by decide))
        have hoi : w'.ownsRow W1.heap.size 9 1 (x 16) PS.length (PS.flatMap sval) := hall 16 (by decide)
        obtain ⟨vi, hvi⟩ : ∃ v, x 16 = v := ⟨_, rfl⟩
        rw [hvi] at hoi
        clear hall
        simp only [hx14, hx15, hvi, List.drop_succ_cons, List.drop_zero]
        have hown8 := own_keptH hown6 hbw
        have hbW := hbW.trans (hbw.mono hbW.size)
        have hP := cells_of hP hbw hPl8
        have tf : (hrow FX.1).size = 32 := by rw [hrow_size]; exact FX.2
        have tfo := hrow_one FX.1
        go_upto_region 10 with (refine wpList_storeRowTo (Z := hrow FX.1) rfl (.tmp 7) (.tmp 58) 25 rfl (by rw [tf]; kernel_rfl) rfl (by rfl) hgz (by rw [tf]; rfl) tfo ?_)
        refine wp_nameE _ (fun W9 hX => ?_)
        have h7 : W9.heap[g7]? = some (.cells (hrow FX.1) 25 (0, 0)) := by rw [hX]; exact setRow_heap _ _ _ _ _ _ hgz
        have hownO : W9.ownsRow W1.heap.size 9 1 v6 (S0 ++ [((⟨#[0]⟩ : ByteArray) ++ El ++ ky ++ vl)]).length ((S0 ++ [((⟨#[0]⟩ : ByteArray) ++ El ++ ky ++ vl)]).flatMap sval) := by rw [hX, List.length_append, List.flatMap_append]; exact own_setO hown8 hgz (by decide)
        have hoi : W9.ownsRow W1.heap.size 9 1 vi PS.length (PS.flatMap sval) := by rw [hX]; exact own_setO hoi hgz (by decide)
        have hbW9 : Below W1.heap.size W1 W9 := by rw [hX]; exact below_setRow hbW (Nat.le_trans hK8 hBg) _
        clear hX hown8 hown6 hgr6 hbW hnews
        obtain ⟨ab, cb, rfl, hrI, _, _, habI⟩ := own_sliceQ hoi
        have hlo : ∀ g, v6.ownBlock = some g → g < W9.heap.size := fun g h => (hownO.lt g h).2
        have hK := hbW9.size
        have HL2 := Lib.hid (sval_flat_len PS)
        obtain ⟨S1, hS1⟩ : ∃ S, S0 ++ [((⟨#[0]⟩ : ByteArray) ++ El ++ ky ++ vl)] = S := ⟨_, rfl⟩
        have hl1 : S1.length ≤ 1000 := by rw [← hS1, List.length_append, List.length_singleton]; omega
        rw [hS1] at hownO
        have HS1 := Lib.hid hS1
        clear hS1
        have hP9 := cells_of hP1 hbW9 hPl
        have cP9 := cell_heap hP9 0
        refine wp_region_stateH (fun D x W => (D 0 = true → x 0 = v6) ∧ (D 1 = true → x 1 = (.slice ab PS.length cb)) ∧ (D 3 = true → x 3 = (.pointer (some ⟨w.heap.size, 0, none⟩))) ∧ (D 4 = true → x 4 = (.int .i64 (N : Int))) ∧ (D 5 = true → x 5 = (.string Ee)) ∧ (D 6 = true → x 6 = (.string ((⟨#[2]⟩ : ByteArray) ++ Ee))) ∧ (D 7 = true → x 7 = (.agg (hrow FX.1))) ∧ (D 8 = true → x 8 = (.string Xx)) ∧ (D 9 = true → x 9 = (.string ((⟨#[2]⟩ : ByteArray) ++ Ee ++ Xx))) ∧ (D 10 = true → D 11 = true ∨ ∃ g, x 10 = .slice (some ⟨g, 0, none⟩) 1 1 ∧ W9.heap.size ≤ g ∧ W.heap[g]? = some (.cells #[.string ((⟨#[2]⟩ : ByteArray) ++ Ee ++ Xx)] 9 (0, 0))) ∧ (D 12 = true → x 12 = x 11) ∧ (D 11 = true → D 2 = true) ∧ (D 12 = true → D 11 = true) ∧ TwoApp W1.heap.size v6 S1 PS ((⟨#[2]⟩ : ByteArray) ++ Ee ++ Xx) (D 2) (D 11) (x 2) (x 11) W ∧ (D 2 = true ∨ RowAt W ab (PS.flatMap sval)) ∧ W.heap[g7]? = some (.cells (hrow FX.1) 25 (0, 0)) ∧ (D 12 = true ∨ x 12 = v6) ∧ (D 2 = true → D 0 = true) ∧ Below W1.heap.size W9 W) (by kernel_rfl) (by kernel_rfl) (by kernel_rfl) (by kernel_rfl) (fun x => by simp only [fillFrom, Act.put, List.setIfInBounds_toArray, List.set_cons_succ, List.set_cons_zero, Nat.zero_add, Nat.reduceAdd]; rfl) ?_ ?_ ?_
        case refine_1 =>
          intro x hx0
          have w0 : x 12 = v6 := congrArg (fun b : Act => b.tmps.getD 3 undef) hx0
          exact ⟨(fun h => by cases h), (fun h => by cases h), (fun h => by cases h), (fun h => by cases h), (fun h => by cases h), (fun h => by cases h), (fun h => by cases h), (fun h => by cases h), (fun h => by cases h), (fun h => by cases h), (fun h => by cases h), (fun h => by cases h), (fun h => by cases h), hownO, .inr (hrI.below (Below.refl _ _).drew), h7, .inr w0, (fun h => by cases h), (Below.refl _ _).drew⟩
        case refine_2 =>
          refine ⟨?_, ?_, ?_, ?_, ?_, ?_, ?_, ?_, ?_, ?_, ?_, ?_, ?_, trivial⟩
          · intro D x w' hD hI hw hcl
            obtain ⟨e0, e1, e3, e4, e5, e6, e7, e8, e9, e10, e12, c11, c12, iJ, iR, i7, w12, c20, iB⟩ := hI.out
            clear hw
            have h12 : D 12 = false := by
              cases h : D 12 with
              | false => rfl
              | true => rw [c20 (c11 (c12 h))] at hD; cases hD
            have w9 : x 12 = v6 := w12.resolve_left (by rw [h12]; exact Bool.false_ne_true)
            go_wp2_with fail
            refine gPost_mk (v := v6) rfl (by first | rfl | exact w9) ?_
            exact ⟨⟨(fun _ => rfl), e1, e3, e4, e5, e6, e7, e8, e9, e10, e12, c11, c12, iJ, iR, i7, w12, (fun _ => rfl), iB⟩⟩
          · intro D x w' hD hI hw hcl
            obtain ⟨e0, e1, e3, e4, e5, e6, e7, e8, e9, e10, e12, c11, c12, iJ, iR, i7, w12, c20, iB⟩ := hI.out
            clear hw
            go_wp2_with fail
            refine gPost_mk (v := (.slice ab PS.length cb)) rfl rfl ?_
            exact ⟨⟨e0, (fun _ => rfl), e3, e4, e5, e6, e7, e8, e9, e10, e12, c11, c12, iJ, iR, i7, w12, c20, iB⟩⟩
          · intro D x w' hD hI hw hcl
            obtain ⟨e0, e1, e3, e4, e5, e6, e7, e8, e9, e10, e12, c11, c12, iJ, iR, i7, w12, c20, iB⟩ := hI.out
            have d0 : x 0 = v6 := e0 (hw 0 rfl)
            have d1 : x 1 = (.slice ab PS.length cb) := e1 (hw 1 rfl)
            have h0 : D 0 = true := hw 0 rfl
            clear hw
            have h11 : D 11 = false := by
              cases h : D 11 with
              | false => rfl
              | true => rw [c11 h] at hD; cases hD
            have hown : w'.ownsRow W1.heap.size 9 1 v6 S1.length (S1.flatMap sval) := iJ.one hD h11
            have hrow : RowAt w' ab (PS.flatMap sval) := iR.resolve_left (by rw [hD]; exact Bool.false_ne_true)
            go_wp2_with (at_builtin; refine wpList_append_ownA _ rfl (.tmp 59) (.tmp 60) 80 rfl W1.heap.size 9 i0 (.string ⟨#[]⟩) 1 16 Tryd.underlying80 ii hz0 hz1 hz2 rfl (by decide) _ _ _ d0 hown ab PS.length cb (PS.flatMap sval) d1 (none_newsA habI) HL2.out (row_newsA hrow habI) (sval_one _) (by unfold maxLen; omega) (by omega) (Nat.le_trans hK iB.size) ?_; intro v2 w2 hown2 hgr2)
            refine gPost_mk (v := v2) rfl rfl ?_
            exact ⟨⟨e0, e1, e3, e4, e5, e6, e7, e8, e9, (fun h => (e10 h).imp id (fun ⟨g, q1, q2, q3⟩ => ⟨g, q1, q2, grown_atC hgr2 q3 (fun e => by have := hlo g (by first | exact own_eq d0 e | exact e.symm); omega)⟩)), e12, (fun _ => rfl), c12, (TwoApp.two h11 hown2), (.inl rfl), (grown_atC hgr2 i7 (fun e => absurd (own_tag hown (by first | exact own_eq d0 e | exact e.symm) i7) (by decide))), w12, (fun _ => h0), (iB.trans (below_grown hown (by first | exact hgr2 | exact grown_eq d0 hgr2) (Nat.le_trans hK iB.size)))⟩⟩
          · intro D x w' hD hI hw hcl
            obtain ⟨e0, e1, e3, e4, e5, e6, e7, e8, e9, e10, e12, c11, c12, iJ, iR, i7, w12, c20, iB⟩ := hI.out
            clear hw
            go_wp2_with fail
            refine gPost_mk (v := (.pointer (some ⟨w.heap.size, 0, none⟩))) rfl rfl ?_
            exact ⟨⟨e0, e1, (fun _ => rfl), e4, e5, e6, e7, e8, e9, e10, e12, c11, c12, iJ, iR, i7, w12, c20, iB⟩⟩
          · intro D x w' hD hI hw hcl
            obtain ⟨e0, e1, e3, e4, e5, e6, e7, e8, e9, e10, e12, c11, c12, iJ, iR, i7, w12, c20, iB⟩ := hI.out
            have d3 : x 3 = (.pointer (some ⟨w.heap.size, 0, none⟩)) := e3 (hw 3 rfl)
            clear hw
            have cq : w'.cell? ⟨w.heap.size, 0, none⟩ = some (.int .i64 (N : Int)) := (iB.cell (p := ⟨w.heap.size, 0, none⟩) hPl).trans cP9
            go_wp2_with fail
            refine gPost_mk (v := (.int .i64 (N : Int))) rfl rfl ?_
            exact ⟨⟨e0, e1, e3, (fun _ => rfl), e5, e6, e7, e8, e9, e10, e12, c11, c12, iJ, iR, i7, w12, c20, iB⟩⟩
          · intro D x w' hD hI hw hcl
            obtain ⟨e0, e1, e3, e4, e5, e6, e7, e8, e9, e10, e12, c11, c12, iJ, iR, i7, w12, c20, iB⟩ := hI.out
            have d4 : x 4 = (.int .i64 (N : Int)) := e4 (hw 4 rfl)
            clear hw
            have CC := CEn w'
            go_wp2_with (go_at_call 67; refine (CC).mono ?_; rintro e wx ⟨rfl, hbx⟩)
            refine gPost_mk (v := (.string Ee)) rfl rfl ?_
            exact ⟨⟨e0, e1, e3, e4, (fun _ => rfl), e6, e7, e8, e9, (fun h => (e10 h).imp id (fun ⟨g, q1, q2, q3⟩ => ⟨g, q1, q2, cells_of q3 hbx (Array.getElem?_eq_some_iff.1 q3).1⟩)), e12, c11, c12, (iJ.kept hbx), (iR.imp id (fun h => h.below hbx)), (cells_of i7 hbx (Array.getElem?_eq_some_iff.1 i7).1), w12, c20, (iB.trans (hbx.mono (Nat.le_trans hK iB.size)))⟩⟩
          · intro D x w' hD hI hw hcl
            obtain ⟨e0, e1, e3, e4, e5, e6, e7, e8, e9, e10, e12, c11, c12, iJ, iR, i7, w12, c20, iB⟩ := hI.out
            have d5 : x 5 = (.string Ee) := e5 (hw 5 rfl)
            clear hw
            go_wp2_with fail
            refine gPost_mk (v := (.string ((⟨#[2]⟩ : ByteArray) ++ Ee))) rfl rfl ?_
            exact ⟨⟨e0, e1, e3, e4, e5, (fun _ => rfl), e7, e8, e9, e10, e12, c11, c12, iJ, iR, i7, w12, c20, iB⟩⟩
          · intro D x w' hD hI hw hcl
            obtain ⟨e0, e1, e3, e4, e5, e6, e7, e8, e9, e10, e12, c11, c12, iJ, iR, i7, w12, c20, iB⟩ := hI.out
            clear hw
            have hrg := hrow_range i7
            go_wp2_with (refine wpList_load_mid rfl 25 (.tmp 7) rfl g7 0 rfl FX.cells _ hrg Tryd.underlying25 rfl (hash_info FX) ?_; rw [H32.row])
            refine gPost_mk (v := (.agg (hrow FX.1))) rfl rfl ?_
            exact ⟨⟨e0, e1, e3, e4, e5, e6, (fun _ => rfl), e8, e9, e10, e12, c11, c12, iJ, iR, i7, w12, c20, iB⟩⟩
          · intro D x w' hD hI hw hcl
            obtain ⟨e0, e1, e3, e4, e5, e6, e7, e8, e9, e10, e12, c11, c12, iJ, iR, i7, w12, c20, iB⟩ := hI.out
            have d7 : x 7 = (.agg (hrow FX.1)) := e7 (hw 7 rfl)
            clear hw
            have CC := CX w'
            go_wp2_with (go_at_call 69; refine (CC).mono ?_; rintro e wx ⟨rfl, hbx⟩)
            refine gPost_mk (v := (.string Xx)) rfl rfl ?_
            exact ⟨⟨e0, e1, e3, e4, e5, e6, e7, (fun _ => rfl), e9, (fun h => (e10 h).imp id (fun ⟨g, q1, q2, q3⟩ => ⟨g, q1, q2, cells_of q3 hbx (Array.getElem?_eq_some_iff.1 q3).1⟩)), e12, c11, c12, (iJ.kept hbx), (iR.imp id (fun h => h.below hbx)), (cells_of i7 hbx (Array.getElem?_eq_some_iff.1 i7).1), w12, c20, (iB.trans (hbx.mono (Nat.le_trans hK iB.size)))⟩⟩
          · intro D x w' hD hI hw hcl
            obtain ⟨e0, e1, e3, e4, e5, e6, e7, e8, e9, e10, e12, c11, c12, iJ, iR, i7, w12, c20, iB⟩ := hI.out
            have d6 : x 6 = (.string ((⟨#[2]⟩ : ByteArray) ++ Ee)) := e6 (hw 6 rfl)
            have d8 : x 8 = (.string Xx) := e8 (hw 8 rfl)
            clear hw
            go_wp2_with fail
            refine gPost_mk (v := (.string ((⟨#[2]⟩ : ByteArray) ++ Ee ++ Xx))) rfl rfl ?_
            exact ⟨⟨e0, e1, e3, e4, e5, e6, e7, e8, (fun _ => rfl), e10, e12, c11, c12, iJ, iR, i7, w12, c20, iB⟩⟩
          · intro D x w' hD hI hw hcl
            obtain ⟨e0, e1, e3, e4, e5, e6, e7, e8, e9, e10, e12, c11, c12, iJ, iR, i7, w12, c20, iB⟩ := hI.out
            have d9 : x 9 = (.string ((⟨#[2]⟩ : ByteArray) ++ Ee ++ Xx)) := e9 (hw 9 rfl)
            clear hw
            go_wp2_with fail
            have hbx : Below w'.heap.size w' (w'.alloc (.cells #[.string ((⟨#[2]⟩ : ByteArray) ++ Ee ++ Xx)] 9)) := Below.alloc (Below.refl _ _) (Nat.le_refl _) _
            refine gPost_mk (v := .slice (some ⟨w'.heap.size, 0, none⟩) 1 1) rfl rfl ?_
            exact ⟨⟨e0, e1, e3, e4, e5, e6, e7, e8, e9, (fun _ => .inr ⟨w'.heap.size, rfl, iB.size, heap_push w' #[.string ((⟨#[2]⟩ : ByteArray) ++ Ee ++ Xx)] 9⟩), e12, c11, c12, (iJ.kept hbx), (iR.imp id (fun h => h.below hbx)), (cells_of i7 hbx (Array.getElem?_eq_some_iff.1 i7).1), w12, c20, (iB.trans (hbx.mono (Nat.le_trans hK iB.size)))⟩⟩
          · intro D x w' hD hI hw hcl
            obtain ⟨e0, e1, e3, e4, e5, e6, e7, e8, e9, e10, e12, c11, c12, iJ, iR, i7, w12, c20, iB⟩ := hI.out
            have h2 : D 2 = true := hw 2 rfl
            have h12 : D 12 = false := by
              cases h : D 12 with
              | false => rfl
              | true => rw [c12 h] at hD; cases hD
            obtain ⟨g, d10, q2, q3⟩ := (e10 (hw 10 rfl)).resolve_left (by rw [hD]; exact Bool.false_ne_true)
            clear hw
            have hl12 : (S1 ++ PS).length ≤ 2000 := by rw [List.length_append]; omega
            have hown : w'.ownsRow W1.heap.size 9 1 (x 2) (S1 ++ PS).length ((S1 ++ PS).flatMap sval) := iJ.mid h2 hD
            go_wp2_with (at_builtin; refine wpList_append_ownA _ rfl (.tmp 61) (.tmp 69) 80 rfl W1.heap.size 9 i0 (.string ⟨#[]⟩) 1 16 Tryd.underlying80 ii hz0 hz1 hz2 rfl (by decide) _ _ _ rfl hown (some ⟨g, 0, none⟩) 1 1 ([((⟨#[2]⟩ : ByteArray) ++ Ee ++ Xx)].flatMap sval) d10 (fun h => by cases h) rfl (one_strA q3) (sval_one _) (by unfold maxLen; omega) (by omega) (Nat.le_trans hK iB.size) ?_; intro v2 w2 hown2 hgr2)
            refine gPost_mk (v := v2) rfl rfl ?_
            exact ⟨⟨e0, e1, e3, e4, e5, e6, e7, e8, e9, (fun _ => .inl rfl), (fun h => by have h : D 12 = true := h; rw [h12] at h; cases h), (fun _ => h2), (fun h => by have h : D 12 = true := h; rw [h12] at h; cases h), (TwoApp.three hown2), (.inl h2), (grown_atC hgr2 i7 (fun e => absurd (own_tag hown e.symm i7) (by decide))), w12, c20, (iB.trans (below_grown hown hgr2 (Nat.le_trans hK iB.size)))⟩⟩
          · intro D x w' hD hI hw hcl
            obtain ⟨e0, e1, e3, e4, e5, e6, e7, e8, e9, e10, e12, c11, c12, iJ, iR, i7, w12, c20, iB⟩ := hI.out
            have h11 : D 11 = true := hw 11 rfl
            clear hw
            go_wp2_with fail
            refine gPost_mk (v := x 11) rfl rfl ?_
            exact ⟨⟨e0, e1, e3, e4, e5, e6, e7, e8, e9, e10, (fun _ => rfl), c11, (fun _ => h11), iJ, iR, i7, (.inl rfl), c20, iB⟩⟩
        intro w8 X hI
        obtain ⟨e0, e1, e3, e4, e5, e6, e7, e8, e9, e10, e12, c11, c12, iJ, iR, i7, w12, c20, iB⟩ := hI
        have f12 : X 12 = X 11 := e12 rfl
        have hown8 : w8.ownsRow W1.heap.size 9 1 (X 11) (S1 ++ PS ++ [((⟨#[2]⟩ : ByteArray) ++ Ee ++ Xx)]).length ((S1 ++ PS ++ [((⟨#[2]⟩ : ByteArray) ++ Ee ++ Xx)]).flatMap sval) := iJ
        have hb8 := iB
        clear e0 e1 e3 e4 e5 e6 e7 e8 e9 e10 e12 c11 c12 iJ iR i7 w12 c20 iB
        obtain ⟨v8, hv8⟩ : ∃ v, X 11 = v := ⟨_, rfl⟩
        rw [hv8] at f12 hown8
        simp only [f12]
        clear hv8
        go_wp2
        go_roundw
        case rel => exact ⟨k + 1, by omega, by go_num, by rw [HST.out, HS0.out, ← List.append_assoc, ← List.append_assoc, HS1.out]; exact hown8, by rw [HST.out, HS0.out]; simp only [List.length_append, List.length_singleton]; omega, hbW9.trans hb8⟩
        case measure => (simp [intOf]) <;> omega
end Go.Proofs.YtfikbaoiialfeaaDoor
namespace Go.Proofs.YtfikbaoiialfeaaDoor
open Go.RowKit
attribute [local go_sem] strV
set_option linter.unusedVariables false
theorem pg_ok {q : List UInt8} {ct : Int} {xs : List LeafV} {key : ByteArray} (h : (valF q ct xs key).2 = true) : mayPfB ct xs = true ∧ valB q ct xs key = true ∧ xs.all (standB q ct) = true := by
  unfold valF at h
  cases hm : (mayPfB ct xs && valB q ct xs key) with
  | false => rw [hm] at h; cases h
  | true =>
    rw [Bool.and_eq_true] at hm
    refine ⟨hm.1, hm.2, ?_⟩
    match xs, hm.2 with
    | [x], h2 =>
      have h2 : ((x.key.toList == key.toList) && standB q ct x) = true := h2
      rw [Bool.and_eq_true] at h2
      simp [h2.2]
theorem pg_lk {q : List UInt8} {ct : Int} {xs : List LeafV} {key : ByteArray} (h : lacksF q ct xs key = true) : mayPfB ct xs = true ∧ xs.all (standB q ct) = true ∧ gapB q ct xs key = true := by
  unfold lacksF at h
  rw [Bool.and_eq_true, Bool.and_eq_true] at h
  exact ⟨h.1.1, h.1.2, h.2⟩
theorem pg_both {q : List UInt8} {ct : Int} {xs : List LeafV} {key : ByteArray} (h1 : valB q ct xs key = true) (h2 : gapB q ct xs key = true) : False := by
  match xs, h1, h2 with
  | [x], h1, h2 =>
    have h1 : ((x.key.toList == key.toList) && standB q ct x) = true := h1
    have h2 : (((x.idx == 0) && lessK key x.key) || ((x.idx == ct - 1) && lessK x.key key)) = true := h2
    rw [Bool.and_eq_true] at h1
    have hk : x.key = key := tl_eq.1 h1.1
    rw [hk, lessK_irr, Bool.and_false, Bool.and_false] at h2
    cases h2
/-- Is the proof the one that Make makes? -/
theorem same_mk (ct : Int) (xs : List LeafV) (R : List Pr) (key : ByteArray) : ∃ sb : Bool, (∀ us : List LeafV, us.map LeafV.d = makeD R key → pfB ct (R.length : Int) xs us = sb) ∧ (sb = true → ct = (R.length : Int) ∧ xs.map LeafV.d = makeD R key) ∧ (sb = false → ¬ (ct = (R.length : Int) ∧ xs.map LeafV.d = makeD R key)) := by
  by_cases h : ct = (R.length : Int) ∧ xs.map LeafV.d = makeD R key
  · refine ⟨true, fun us hu => ?_, fun _ => h, fun h9 => by cases h9⟩
    unfold pfB
    rw [h.1, beq_self_eq_true, (lvsB_iff xs us).2 (by rw [h.2, hu])]; rfl
  · refine ⟨false, fun us hu => ?_, fun h9 => (by cases h9), fun _ => h⟩
    cases h9 : pfB ct (R.length : Int) xs us with
    | false => rfl
    | true =>
      unfold pfB at h9
      rw [Bool.and_eq_true, beq_iff_eq] at h9
      exact absurd ⟨h9.1, by rw [← hu]; exact (lvsB_iff xs us).1 h9.2⟩ h
theorem nodeT_len (q r : H32) : (nodeT q r).length = 65 := by unfold nodeT; simp [q.2, r.2]
def isB (R : List Pr) (k : Nat) (key v : ByteArray) : Bool := (R.take k).any (fun p => (p.k.toList == key.toList) && (p.v.toList == v.toList))
theorem isB_step {R : List Pr} {k : Nat} (hk : k < R.length) (key v : ByteArray) : isB R (k + 1) key v = (isB R k key v || ((R[k].k.toList == key.toList) && (R[k].v.toList == v.toList))) := by
  unfold isB
  rw [List.take_succ_eq_append_getElem hk, List.any_append]
  simp
theorem isB_all {R : List Pr} {ct : Int} {xs : List LeafV} {key : ByteArray} (h : goodL R = true) (hn : R.length ≤ 1000000) (hs : ct = (R.length : Int) ∧ xs.map LeafV.d = makeD R key) :
    isB R R.length key (valF (rootF (R.length : Int) (topH (R.map leafH)).1) ct xs key).1 = (valF (rootF (R.length : Int) (topH (R.map leafH)).1) ct xs key).2 := by
  obtain ⟨rfl, hx⟩ := hs
  unfold isB
  rw [List.take_length]
  cases hf : foundL R key with
  | true =>
    obtain ⟨hi, hk⟩ := found_at hf
    obtain ⟨x, rfl, hi9, hv, _⟩ := make_first h hf hx
    have e : valF (rootF (R.length : Int) (topH (R.map leafH)).1) (R.length : Int) [x] key = (x.val, true) := by
      unfold valF
      rw [make_may h hn hx, make_val h hx, hf]; rfl
    rw [e]
    exact List.any_eq_true.2 ⟨R[placeL R key], List.getElem_mem hi, by rw [tl_eq.2 hk, hv, beq_self_eq_true]; rfl⟩
  | false =>
    rw [ps_val h hn hx, hf, List.any_eq_false]
    intro p hp
    obtain ⟨i, hi, rfl⟩ := List.getElem_of_mem hp
    rw [key_ne h hf hi]
    exact Bool.false_ne_true
theorem pg_no {R : List Pr} {ct : Int} {xs : List LeafV} {key : ByteArray} (h : goodL R = true) (hn : R.length ≤ 1000000) (hs : ct = (R.length : Int) ∧ xs.map LeafV.d = makeD R key) {i : Nat} (hi : i < R.length) (hk : (R[i].k.toList == key.toList) = true) : lacksF (rootF (R.length : Int) (topH (R.map leafH)).1) ct xs key = false := by
  obtain ⟨rfl, hx⟩ := hs
  rw [ps_lacks h hn hx, found_of h hi (tl_eq.1 hk)]; rfl
theorem strsB_back (T : List (List UInt8)) : (strsB T).map (·.data.toList) = T := by
  unfold strsB
  rw [List.map_map]
  conv => rhs; rw [← List.map_id T]
  exact List.map_congr_left (fun t _ => strB_data t)
theorem pg_clash {R : List Pr} {ct : Int} {xs : List LeafV} {key : ByteArray} (h : goodL R = true) (hn : R.length ≤ 1000000) (hM : mayPfB ct xs = true) (hS : xs.all (standB (rootF (R.length : Int) (topH (R.map leafH)).1) ct) = true)
    (hv : valB (rootF (R.length : Int) (topH (R.map leafH)).1) ct xs key = true ∨ gapB (rootF (R.length : Int) (topH (R.map leafH)).1) ct xs key = true) (hs : ¬ (ct = (R.length : Int) ∧ xs.map LeafV.d = makeD R key)) : clashB (strsB (inputsT R) ++ strsB (shownT ct xs)) = true := by
  cases hc : clashB (strsB (inputsT R) ++ strsB (shownT ct xs)) with
  | true => rfl
  | false =>
    have hL := nc_of hc
    rw [List.map_append, strsB_back, strsB_back] at hL
    obtain ⟨e1, e2⟩ := forged h hn hM hS hv hL (fun t ht => List.mem_append_left _ ht) (fun t ht => List.mem_append_right _ ht)
    have hm : makeC R = (R.length : Int) := by unfold makeC; rw [if_pos h]
    exact absurd ⟨e1.trans hm, e2⟩ hs
theorem topT_short : ∀ (n : Nat) (l : List H32), l.length = n → ∀ t ∈ topT l, t.length ≤ 1000 := by
  intro n
  induction n using Nat.strongRecOn with
  | _ n ih =>
  intro l hl t ht
  rcases Nat.lt_or_ge n 2 with h | h
  · rw [topT_few (by omega)] at ht; cases ht
  · have h1 := halfN_lt h
    have h2 := halfN_pos n
    rw [topT_two (by omega), hl, List.mem_append, List.mem_append, List.mem_singleton] at ht
    rcases ht with (ht | ht) | rfl
    · exact ih _ h1 _ (by rw [List.length_take]; omega) t ht
    · exact ih (n - halfN n) (by omega) _ (by rw [List.length_drop]; omega) t ht
    · rw [nodeT_len]; omega
theorem wayT_short : ∀ (n i : Nat) (x : H32) (w : List H32), ∀ t ∈ wayT n i x w, t.length ≤ 1000 := by
  intro n
  induction n using Nat.strongRecOn with
  | _ n ih =>
  intro i x w t ht
  rcases Nat.lt_or_ge n 2 with h | h
  · rw [wayT_one h] at ht; cases ht
  · have h2 := halfN_pos n
    by_cases hh : i < halfN n
    · rw [wayT_left h hh, List.mem_append, List.mem_singleton] at ht
      rcases ht with ht | rfl
      · exact ih _ (halfN_lt h) _ _ _ t ht
      · rw [nodeT_len]; omega
    · rw [wayT_right h hh, List.mem_append, List.mem_singleton] at ht
      rcases ht with ht | rfl
      · exact ih _ (by omega) _ _ _ t ht
      · rw [nodeT_len]; omega
theorem rootT_short (n : Int) (q : H32) : (rootT n q).length ≤ 1000 := by
  have := eightL_le n
  unfold rootT
  simp only [List.length_append, List.length_singleton, q.2]
  omega
theorem leafT_short {k v : ByteArray} (hk : k.size ≤ 300000) (hv : v.size ≤ 300000) : (leafT k v).length ≤ 1000000 := by
  have := eightL_le k.size
  unfold leafT
  simp only [List.length_append, List.length_singleton, Array.length_toList]
  have e1 : k.data.size = k.size := rfl
  have e2 : v.data.size = v.size := rfl
  omega
theorem inputs_short {R : List Pr} (hs : ∀ p ∈ R, p.k.size ≤ 300000 ∧ p.v.size ≤ 300000) : ∀ s ∈ strsB (inputsT R), s.size ≤ 1000000 := by
  intro s hm
  obtain ⟨t, ht, rfl⟩ := List.mem_map.1 hm
  rw [strB_size]
  unfold inputsT at ht
  rw [List.mem_append, List.mem_append, List.mem_singleton] at ht
  rcases ht with (ht | ht) | rfl
  · obtain ⟨p, hp, rfl⟩ := List.mem_map.1 ht
    exact leafT_short (hs p hp).1 (hs p hp).2
  · exact Nat.le_trans (topT_short _ _ rfl t ht) (by omega)
  · exact Nat.le_trans (rootT_short _ _) (by omega)
theorem shown_short {ct : Int} {xs : List LeafV} (hM : mayPfB ct xs = true) : ∀ s ∈ strsB (shownT ct xs), s.size ≤ 1000000 := by
  intro s hm
  obtain ⟨t, ht, rfl⟩ := List.mem_map.1 hm
  rw [strB_size]
  unfold shownT at ht
  rw [List.mem_append, List.mem_singleton] at ht
  rcases ht with rfl | ht
  · exact Nat.le_trans (rootT_short _ _) (by omega)
  · obtain ⟨x, hx, ht⟩ := List.mem_flatMap.1 ht
    have hf := may_leaf hM hx
    unfold leafShown at ht
    rw [List.mem_append, List.mem_append, List.mem_singleton, List.mem_singleton] at ht
    rcases ht with (rfl | ht) | rfl
    · exact leafT_short (by omega) (by omega)
    · exact Nat.le_trans (wayT_short _ _ _ _ t ht) (by omega)
    · exact Nat.le_trans (rootT_short _ _) (by omega)
theorem inputs_few {R : List Pr} {m : Nat} (h : R.length = m) : (strsB (inputsT R)).length ≤ 2 * m + 2 := by
  rw [strsB_len]
  unfold inputsT
  have := topT_len m (R.map leafH) (by rw [List.length_map, h])
  rw [List.length_append, List.length_append, List.length_singleton, List.length_map, h]
  omega
theorem shown_few {ct : Int} {xs : List LeafV} (hM : mayPfB ct xs = true) : (strsB (shownT ct xs)).length ≤ 100 := by
  rw [strsB_len]
  unfold shownT
  obtain ⟨c1, c2, c3⟩ := may_few hM
  have one : ∀ x ∈ xs, (leafShown ct x).length ≤ 40 := fun x hx => by
    obtain ⟨_, _, _, _, m5, m6, _⟩ := may_leaf hM hx
    have h1 := wayT_len ct.toNat x.idx.toNat (leafD x.d) x.path (by omega)
    have h2 := deepN_30 (n := ct.toNat) (i := x.idx.toNat) (by omega)
    unfold leafShown
    rw [List.length_append, List.length_append, List.length_singleton, List.length_singleton, h1]
    omega
  match xs, c3, one with
  | [], _, _ => simp
  | [x], _, one =>
    have := one x (by simp)
    simp only [List.flatMap_cons, List.flatMap_nil, List.length_append, List.length_singleton, List.length_nil]
    omega
  | [x, y], _, one =>
    have := one x (by simp)
    have := one y (by simp)
    simp only [List.flatMap_cons, List.flatMap_nil, List.length_append, List.length_singleton, List.length_nil]
    omega
  | _ :: _ :: _ :: _, c3, _ => simp at c3
end Go.Proofs.YtfikbaoiialfeaaDoor
