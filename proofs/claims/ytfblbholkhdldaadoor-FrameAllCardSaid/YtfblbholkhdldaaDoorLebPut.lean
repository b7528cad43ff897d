/- leb.encodable, leb.Size, leb.Put and ligref1.PutNum: what they return. -/
import Derived.Test.YtfblbholkhdldaaDoorRows
import Derived.Test.YtfblbholkhdldaaDoorLebMath
import Derived.Test.YtfblbholkhdldaaDoorKit
import Derived.WalkKit
import Derived.ProofKit
import Derived.Handy
import Derived.Below
import Derived.Lib.Hide
import Derived.IntWalk
import Derived.Outline
import Derived.WalkLawsBesides
import Derived.WalkSpells
namespace Go.Proofs.YtfblbholkhdldaaDoor
open Go.RowKit

theorem Tryd.infoU8 : (Tryd.prog.info? 5).map (fun i => (i.zero, i.size, i.bytes)) = some (some (.int .u8 0), 1, 1) := by kernel_rfl

theorem encodable_any (v : Int) (w : World) :
    Calls Tryd.prog 86 #[.int .i64 v] w fun e w' => e = .returned (.bool (encB v)) ∧ w = w' := by
  by_cases h0 : 0 ≤ v
  · by_cases h1 : v ≤ 72057594037927935
    · have hb : encB v = true := by simp [encB]; omega
      go_enter Tryd.func86, Tryd.ntmps86
      go_wp2
      go_ret
      first | exact ⟨rfl, rfl⟩ | exact ⟨by rw [hb]; rfl, rfl⟩
    · have hb : encB v = false := by simp [encB]; omega
      go_enter Tryd.func86, Tryd.ntmps86
      go_wp2
      go_ret
      first | exact ⟨rfl, rfl⟩ | exact ⟨by rw [hb]; rfl, rfl⟩
  · have hb : encB v = false := by simp [encB]; omega
    go_enter Tryd.func86, Tryd.ntmps86
    go_wp2
    go_ret
    first | exact ⟨rfl, rfl⟩ | exact ⟨by rw [hb]; rfl, rfl⟩

theorem encB_nat {v : Int} (h : encB v = true) : ∃ x : Nat, v = x ∧ x ≤ 72057594037927935 := by
  simp [encB] at h
  exact ⟨v.toNat, by omega, by omega⟩

set_option maxRecDepth 100000 in
set_option maxHeartbeats 400000 in
theorem size_any (v : Int) (w : World) :
    Calls Tryd.prog 112 #[.int .i64 v] w fun e w' => e = .returned (.int .i64 ((putL v).length : Int)) ∧ w = w' := by
  by_cases hv : encB v = true
  · obtain ⟨x, rfl, hx⟩ := encB_nat hv
    have hp : putL (x : Int) = grp 7 x := by unfold putL; rw [if_pos hv]; rfl
    have hl := grp_first x
    have hle := grp_le 7 x
    rw [hp]
    have HL := Lib.hid hl; clear hl hp
    go_enter Tryd.func112, Tryd.ntmps112
    go_wp2_with (go_at_call 86; refine (encodable_any _ _).mono ?_; rintro e w' ⟨rfl, rfl⟩)
    go_loop [0, 3] (fun a n => ∃ y k : Nat, 1 ≤ k ∧ k ≤ 8 ∧ y < 128 ^ (8 - k) ∧ Hid ((grp 7 x).length = k + gl (7 - k) y) ∧ a = .int .i64 y ∧ n = .int .i64 k) (fun a _ => (intOf a).toNat)
    case atStart => exact ⟨x / 128, 1, by omega, by omega, by omega, HL, by go_num, rfl⟩
    case round =>
      obtain ⟨y, k, hk1, hk8, hy, HN, rfl, rfl⟩ := hrel
      by_cases h0 : 0 < y
      · have hk7 : k ≤ 7 := by
          rcases Nat.lt_or_ge 7 k with h | h
          · exact absurd hy (by rw [show 8 - k = 0 by omega]; simp; omega)
          · exact h
        have hs := gl_step (f := 7 - k) h0 (by rw [show 7 - k + 1 = 8 - k by omega]; exact hy)
        have HR : Hid ((grp 7 x).length = (k + 1) + gl (7 - (k + 1)) (y / 128)) := Lib.hid (by
          rw [HN.out, hs, show 7 - k - 1 = 7 - (k + 1) by omega]; omega)
        have hy2 : y / 128 < 128 ^ (8 - (k + 1)) := by
          rw [show 8 - k = 8 - (k + 1) + 1 by omega, Nat.pow_succ] at hy; rw [Nat.div_lt_iff_lt_mul (by decide)]; exact hy
        clear hs
        go_wp2
        go_round
        case rel => exact ⟨y / 128, k + 1, by omega, by omega, hy2, HR, by go_num, by go_num⟩
        case measure => simp [intOf]; omega
      · obtain rfl : y = 0 := by omega
        go_wp2
        go_ret
        exact ⟨by rw [HN.out, gl_zero]; rfl, rfl⟩
  · have hv' : encB v = false := by simpa using hv
    have hp : putL v = [] := by unfold putL; rw [if_neg hv]
    rw [hp]
    clear hv hp
    go_enter Tryd.func112, Tryd.ntmps112
    go_wp2_with (go_at_call 86; refine (encodable_any _ _).mono ?_; rintro e w' ⟨rfl, rfl⟩)
    go_ret
    exact ⟨rfl, rfl⟩

set_option maxRecDepth 100000 in
set_option maxHeartbeats 400000 in
theorem putNum_any (v : Int) (w : World) :
    Calls Tryd.prog 93 #[.int .i64 v] w fun e w' => e = .returned (strV (putL v)) ∧ Below w.heap.size w w' := by
  by_cases hv : encB v = true
  · obtain ⟨x, rfl, hx⟩ := encB_nat hv
    have hp : putL (x : Int) = grp 7 x := by unfold putL; rw [if_pos hv]; rfl
    have HP := Lib.hid hp; clear hp
    obtain ⟨i0, hi, hz0, hz1, hz2⟩ := info_parts Tryd.infoU8
    clear hv
    go_enter Tryd.func93, Tryd.ntmps93
    go_wp2
    go_loopw [0, 3] (fun a b wr => ∃ (y k : Nat) (l : List UInt8), k ≤ 7 ∧ y < 128 ^ (8 - k) ∧ y ≤ x ∧ l.length = k ∧ Hid (grp 7 x = l ++ grp (7 - k) y) ∧ wr.ownsRow w.heap.size 5 1 b k (l.map bv) ∧ Below w.heap.size w wr ∧ a = .int .i64 y) (fun a _ _ => (intOf a).toNat)
    case atStart => exact ⟨x, 0, [], by omega, by omega, by omega, rfl, Lib.hid rfl, World.ownsRow_nil _ _ _ _, Below.refl _ _, rfl⟩
    case round =>
      obtain ⟨y, k, l, hk, hy, hyx, hl, HN, hown, hbel, rfl⟩ := hrel
      have hsz := hbel.size
      by_cases h1 : 127 < y
      · have hk7 : k < 7 := by
          rcases Nat.lt_or_ge k 7 with h | h
          · exact h
          · exact absurd hy (by rw [show 8 - k = 1 by omega]; simp; omega)
        have hy2 : y / 128 < 128 ^ (8 - (k + 1)) := by
          rw [show 8 - k = 8 - (k + 1) + 1 by omega, Nat.pow_succ] at hy; rw [Nat.div_lt_iff_lt_mul (by decide)]; exact hy
        have HR : Hid (grp 7 x = (l ++ [UInt8.ofNat (y % 128 + 128)]) ++ grp (7 - (k + 1)) (y / 128)) := Lib.hid (by
          rw [HN.out, show 7 - k = 7 - (k + 1) + 1 by omega, grp_big (by omega), List.append_assoc]; rfl)
        have HB : Hid (bv (UInt8.ofNat (y % 128 + 128)) = .int .u8 ((y : Int) % 128 + 128)) := Lib.hid (by
          unfold bv; rw [UInt8.toNat_ofNat']; congr 1; omega)
        have Hl := Lib.hid hl; clear hl
        go_wp2_with (at_builtin; refine wpList_push rfl (.tmp 12) (.tmp 17) 72 rfl 5 i0 (.int .u8 0) 1 Tryd.underlying72 hi hz0 hz1 hz2 rfl hown rfl _ rfl rfl (by unfold maxLen; omega) (by omega) hsz ?_; intro b1 w1 hown1 hbel1)
        go_roundw
        case rel => exact ⟨y / 128, k + 1, l ++ [UInt8.ofNat (y % 128 + 128)], by omega, hy2, by omega, by simp [Hl.out], HR, by rw [List.map_append, List.map_cons, List.map_nil, HB.out]; exact hown1, hbel.trans hbel1, by go_num⟩
        case measure => simp [intOf]; omega
      · have HR : Hid (grp 7 x = l ++ [UInt8.ofNat y]) := Lib.hid (by
          rw [HN.out, grp_small (by omega)])
        have HB : Hid (bv (UInt8.ofNat y) = .int .u8 (y : Int)) := Lib.hid (by
          unfold bv; rw [UInt8.toNat_ofNat']; congr 1; omega)
        have Hl := Lib.hid hl; clear hl
        go_wp2_with (at_builtin; refine wpList_push rfl (.tmp 21) (.tmp 24) 72 rfl 5 i0 (.int .u8 0) 1 Tryd.underlying72 hi hz0 hz1 hz2 rfl hown rfl _ rfl rfl (by unfold maxLen; omega) (by omega) hsz ?_; intro b1 w1 hown1 hbel1; have hcv := conv_own (P := Tryd.prog) (l := l ++ [UInt8.ofNat y]) (by rw [List.map_append, List.map_cons, List.map_nil, HB.out]; exact hown1) 72 9 Tryd.underlying72 Tryd.underlying5 Tryd.underlying9)
        go_ret
        exact ⟨by rw [HP.out, HR.out]; rfl, hbel.trans hbel1⟩
  · have hp : putL v = [] := by unfold putL; rw [if_neg hv]
    have H0 : v < 0 ∨ 72057594037927935 < v := by simp [encB] at hv; omega
    have HP := Lib.hid hp; clear hp hv
    rcases H0 with h | h
    all_goals
      go_enter Tryd.func93, Tryd.ntmps93
      go_wp2
      go_ret
      exact ⟨by rw [HP.out]; rfl, Below.refl _ _⟩

theorem u8_mark (y : Nat) : bits .or .u8 ((y % 256 : Nat) : Int) 128 = ((y % 128 + 128 : Nat) : Int) := by
  have h := u8_or_nat (y % 256) 128 (by omega) (by omega)
  rw [show ((128 : Nat) : Int) = 128 from rfl] at h
  rw [h]
  congr 1
  rcases Nat.lt_or_ge (y % 256) 128 with g | g
  · have := nat_join 7 128 (y % 256) (by decide) (by omega)
    rw [Nat.or_comm, this]; omega
  · have e : y % 256 = 128 + y % 128 := by omega
    rw [e]
    have := nat_join 7 128 (y % 128) (by decide) (by omega)
    rw [← this, Nat.or_assoc, Nat.or_comm (y % 128) 128, ← Nat.or_assoc, Nat.or_self]; rw [this]; omega
theorem u8_clear (q : Nat) (h : q < 128) : bits .andNot .u8 ((q + 128 : Nat) : Int) 128 = (q : Int) := by
  have := u8_andNot_nat (q + 128) 128 (by omega) (by omega)
  rw [show ((128 : Nat) : Int) = 128 from rfl] at this
  rw [this, show 255 - 128 = 127 from rfl, nat_mask7]
  congr 1; omega

set_option maxRecDepth 100000 in
set_option maxHeartbeats 800000 in
theorem put_any (v : Int) (w : World) :
    Calls Tryd.prog 103 #[.int .i64 v] w fun e w' => e = .returned (strV (putL v)) ∧ Below w.heap.size w w' := by
  by_cases hv : encB v = true
  · obtain ⟨x, rfl, hx⟩ := encB_nat hv
    have hp : putL (x : Int) = grp 7 x := by unfold putL; rw [if_pos hv]; rfl
    have hpos := grp_pos 7 x
    have hle := grp_le 7 x
    have hmk := grp_marked (f := 7) (v := x) (by omega)
    have hls := last_small (f := 7) (v := x) (by omega)
    obtain ⟨n, hn⟩ : ∃ n, (grp 7 x).length = n := ⟨_, rfl⟩
    have hsize : (putL (x : Int)).length = n := by rw [hp, hn]
    rw [hn] at hpos hle hmk hls
    have HP := Lib.hid hp; have HM := Lib.hid hmk; have HS := Lib.hid hsize; clear hp hmk hn hsize
    obtain ⟨i0, hi, hz0, hz1, hz2⟩ := info_parts Tryd.infoU8
    clear hv
    have hn0 : ((n : Int) == 0) = false := by simp; omega
    go_enter Tryd.func103, Tryd.ntmps103
    go_wp2_with (first | (go_at_call 112; refine (size_any _ _).mono ?_; rintro e w' ⟨rfl, rfl⟩; rw [HS.out]) | (at_make; refine wpList_make_full _ rfl (.tmp 10) (.tmp 10) 72 rfl w.heap.size 5 i0 (.int .u8 0) 1 Tryd.underlying72 hi hz0 hz1 .i64 .i64 (n : Int) (n : Int) n rfl rfl rfl rfl (by rw [hz2]; omega) (by unfold maxLen; omega) (Nat.le_refl _) ?_; intro w1 hown1 hgr1))
    have hbel0 : Below w.heap.size w w1 := (Below.refl _ w).grown hgr1 (Nat.le_refl _) (by simp)
    have hrow0 : w1.ownsRow w.heap.size 5 1 (.slice (some ⟨w.heap.size, 0, none⟩) n n) n ((marked 0 x).map bv ++ List.replicate (n - 0) (.int .u8 0)) := by
      have := hown1
      rw [show (Value.int IntKind.u8 0).cells = #[.int .u8 0] from rfl, toList_madeCells_one, Nat.mul_one] at this
      simpa [marked] using this
    clear hown1 hgr1
    go_loopw [0, 14] (fun a i wr => ∃ k y : Nat, k ≤ n ∧ y ≤ x ∧ Hid (y = x / 128 ^ k) ∧ wr.ownsRow w.heap.size 5 1 (.slice (some ⟨w.heap.size, 0, none⟩) n n) n ((marked k x).map bv ++ List.replicate (n - k) (.int .u8 0)) ∧ Below w.heap.size w wr ∧ a = .int .i64 y ∧ i = .int .i64 k) (fun _ i _ => n - (intOf i).toNat)
    case atStart => exact ⟨0, x, by omega, by omega, Lib.hid (by simp), hrow0, hbel0, rfl, rfl⟩
    case round =>
      clear hrow0 hbel0
      obtain ⟨k, y, hk, hyx, HY, hown, hbel, rfl, rfl⟩ := hrel
      have hsz := hbel.size
      by_cases hlt : k < n
      · obtain ⟨c0, hc0⟩ : ∃ c0, wr.cell? ⟨w.heap.size, k, none⟩ = some c0 := by
          refine ⟨_, (hown.cellAt k (by omega)).trans (List.getElem?_eq_getElem (by simp [marked_length]; omega))⟩
        have hfr := hown.frozenAt k
        have hst := (hown.stored k (.int .u8 (bits .or .u8 ((y : Int) % 256) 128))).1
        have HST : Hid ((wr.setCell ⟨w.heap.size, k, none⟩ (.int .u8 (bits .or .u8 ((y : Int) % 256) 128))).ownsRow w.heap.size 5 1 (.slice (some ⟨w.heap.size, 0, none⟩) n n) n ((marked (k + 1) x).map bv ++ List.replicate (n - (k + 1)) (.int .u8 0))) := Lib.hid (by
          have e : bits .or .u8 ((y : Int) % 256) 128 = ((y % 128 + 128 : Nat) : Int) := by rw [← u8_mark]; congr 1
          have e2 : ((marked k x).map bv ++ List.replicate (n - k) (Value.int .u8 0)).set k (.int .u8 (bits .or .u8 ((y : Int) % 256) 128)) = (marked (k + 1) x).map bv ++ List.replicate (n - (k + 1)) (.int .u8 0) := by
            rw [List.set_append_right _ _ (by simp [marked_length])]
            simp only [List.length_map, marked_length, Nat.sub_self]
            rw [show n - k = (n - (k + 1)) + 1 by omega, List.replicate_succ, List.set_cons_zero, marked_snoc, List.map_append, List.append_assoc, e, ← HY.out]
            simp only [List.map_cons, List.map_nil, List.cons_append, List.nil_append]
            rw [bv_ofNat (by omega)]
          rw [← e2]; exact hst)
        have HB := Lib.hid (hbel.setCell (p := ⟨w.heap.size, k, none⟩) (Nat.le_refl _) (.int .u8 (bits .or .u8 ((y : Int) % 256) 128)))
        clear hst
        go_wp2
        go_roundw
        case rel => exact ⟨k + 1, y / 128, by omega, by omega, Lib.hid (by rw [HY.out, Nat.div_div_eq_div_mul, Nat.pow_succ]), HST.out, HB.out, by go_num, by go_num⟩
        case measure => simp [intOf]; omega
      · have hkn : k = n := by omega
        have hxs : (marked k x).map bv ++ List.replicate (n - k) (Value.int .u8 0) = (marked n x).map bv := by rw [hkn]; simp
        rw [hxs] at hown
        clear hxs
        obtain ⟨m, hm⟩ : ∃ m, n = m + 1 := ⟨n - 1, by omega⟩
        obtain ⟨q, hq⟩ : ∃ q, x / 128 ^ (n - 1) = q := ⟨_, rfl⟩
        obtain ⟨c, hc⟩ : ∃ c : Nat, q + 128 = c := ⟨_, rfl⟩
        rw [hq] at hls
        have hmn : marked n x = marked (n - 1) x ++ [UInt8.ofNat c] := by
          rw [hm, marked_snoc]; simp only [Nat.add_sub_cancel]
          rw [show x / 128 ^ m = q by rw [← hq, hm]; rfl, Nat.mod_eq_of_lt hls, hc]
        have hcell : wr.cell? ⟨w.heap.size, n - 1, none⟩ = some (.int .u8 (c : Int)) := by
          rw [hown.cellAt (n - 1) (by omega), hmn, List.map_append, List.getElem?_append_right (by simp [marked_length])]
          simp only [List.length_map, marked_length, Nat.sub_self, List.map_cons, List.map_nil, List.getElem?_cons_zero]
          rw [bv_ofNat (by omega)]
        have hfr := hown.frozenAt (n - 1)
        have hst := (hown.stored (n - 1) (.int .u8 (bits .andNot .u8 (c : Int) 128))).1
        have e : bits .andNot .u8 (c : Int) 128 = (q : Int) := by rw [← hc]; exact u8_clear q hls
        have hrow : ((marked n x).map bv).set (n - 1) (.int .u8 (bits .andNot .u8 (c : Int) 128)) = (grp 7 x).map bv := by
          rw [HM.out, hq, hmn, e, List.map_append, List.map_append, List.set_append_right _ _ (by simp [marked_length])]
          simp only [List.length_map, marked_length, Nat.sub_self, List.map_cons, List.map_nil, List.set_cons_zero]
          rw [bv_ofNat (by omega)]
        rw [hrow] at hst
        have hcv := conv_own (P := Tryd.prog) hst 72 9 Tryd.underlying72 Tryd.underlying5 Tryd.underlying9
        have HB := Lib.hid (hbel.setCell (p := ⟨w.heap.size, n - 1, none⟩) (Nat.le_refl _) (.int .u8 (bits .andNot .u8 (c : Int) 128)))
        clear hst hrow e hmn hq hc hm hkn
        go_wp2
        go_ret
        exact ⟨by rw [HP.out]; rfl, HB.out⟩
  · have hp : putL v = [] := by unfold putL; rw [if_neg hv]
    have HP := Lib.hid hp; clear hp hv
    go_enter Tryd.func103, Tryd.ntmps103
    go_wp2_with (go_at_call 112; refine (size_any _ _).mono ?_; rintro e w' ⟨rfl, rfl⟩; rw [HP.out])
    go_ret
    exact ⟨by rw [HP.out]; rfl, Below.refl _ _⟩
end Go.Proofs.YtfblbholkhdldaaDoor
