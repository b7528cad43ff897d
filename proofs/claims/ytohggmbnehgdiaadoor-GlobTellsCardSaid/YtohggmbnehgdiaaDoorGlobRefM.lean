/- The document's own Match, walked. -/
import Derived.Test.YtohggmbnehgdiaaDoorGlobMatch
import Derived.Test.YtohggmbnehgdiaaDoorVRow
import Derived.WalkKit
import Derived.ProofKit
import Derived.Handy
import Derived.Below
import Derived.BigQuiet
import Derived.Lib.Hide
import Derived.IntWalk
import Derived.Outline
import Derived.WalkLawsBesides
import Derived.WalkSpells
import Derived.BigRegion
import Derived.RegionTactic
namespace Go.Proofs.YtohggmbnehgdiaaDoor
open Go.RowKit
attribute [local go_sem] strV
/-- What cell j of the row holds behind i signs of the pattern. -/
def dpF (p s : List UInt8) (i j : Nat) : Bool := gm (p.take i) (s.take j)
theorem dpF_star {p s : List UInt8} {i k : Nat} (hi : p[i]? = some 42) (hk : k ≤ s.length) : dpF p s (i + 1) k = (dpF p s i k || (decide (0 < k) && dpF p s (i + 1) (k - 1))) := by
  unfold dpF; rw [List.take_add_one, hi]; exact dp_star _ _ _ hk
theorem dpF_one {p s : List UInt8} {i k : Nat} {c x : UInt8} (hi : p[i]? = some c) (hc : c ≠ 42) (hk : s[k]? = some x) : dpF p s (i + 1) (k + 1) = (dpF p s i k && (c == 63 || c == x)) := by
  obtain ⟨h1, h2⟩ := List.getElem?_eq_some_iff.1 hk
  subst h2
  unfold dpF; rw [List.take_add_one, hi]; exact dp_one _ _ _ hc _ h1
theorem dpF_one0 {p s : List UInt8} {i : Nat} {c : UInt8} (hi : p[i]? = some c) (hc : c ≠ 42) : dpF p s (i + 1) 0 = false := by
  unfold dpF; rw [List.take_add_one, hi]; exact dp_one0 _ _ _ hc
theorem dpF_start (p s : List UInt8) (k : Nat) (hk : k ≤ s.length) : dpF p s 0 k = decide (k = 0) := dp_zero _ _ hk
theorem dpF_end (p s : List UInt8) : dpF p s p.length s.length = gm p s := by unfold dpF; rw [List.take_length, List.take_length]
/-- The row that is being filled: k cells are right, the rest false. -/
def fillF (p s : List UInt8) (i k j : Nat) : Value := .bool (decide (j < k) && dpF p s (i + 1) j)
theorem fill_set {w : World} {g n : Nat} {p s : List UInt8} {i k : Nat} (h : VR w g n (fillF p s i k)) {b : Bool} (hb : dpF p s (i + 1) k = b) : VR (w.setCell ⟨g, k, none⟩ (.bool b)) g n (fillF p s i (k + 1)) := by
  refine (h.set (k := k) (.bool b)).congr fun j _ => ?_
  show (if j = k then Value.bool b else fillF p s i k j) = fillF p s i (k + 1) j
  unfold fillF
  by_cases hjk : j = k
  · subst hjk; rw [if_pos rfl, hb, decide_eq_true (show j < j + 1 by omega)]; rfl
  · rw [if_neg hjk]
    by_cases h : j < k
    · rw [decide_eq_true h, decide_eq_true (show j < k + 1 by omega)]
    · rw [decide_eq_false h, decide_eq_false (show ¬ j < k + 1 by omega)]

set_option maxRecDepth 100000 in
set_option maxHeartbeats 6400000 in
theorem refMatch_any (p s : ByteArray) (w : World) (hp : p.size ≤ maxLen) (hs : s.size ≤ 1000000) :
    Calls Tryd.prog 11 #[.string p, .string s] w fun e w' => e = .returned (.bool (matchP p.data.toList s.data.toList)) ∧ Below w.heap.size w w' := by
  cases hm : mayP p.data.toList
  · have HR : Hid (matchP p.data.toList s.data.toList = false) := Lib.hid (by unfold matchP; rw [hm]; rfl)
    have HM := Lib.hid hm; clear hm
    go_enter Tryd.func11, Tryd.ntmps11
    go_wp2_with (go_at_call 9; refine (refMay_any p _ hp).mono ?_; rintro e w1 ⟨rfl, hw1⟩; obtain rfl : w = w1 := hw1.symm; rw [HM.out])
    go_ret
    exact ⟨by rw [HR.out]; first | done | rfl, Below.refl _ _⟩
  · have hsz : p.size ≤ 40 := by have := may_len hm; rwa [str_len] at this
    have HR : Hid (matchP p.data.toList s.data.toList = gm p.data.toList s.data.toList) := Lib.hid (by unfold matchP; rw [hm]; rfl)
    have HM := Lib.hid hm; clear hm
    go_enter Tryd.func11, Tryd.ntmps11
    go_wp2_with (first | (go_at_call 9; refine (refMay_any p _ hp).mono ?_; rintro e w1 ⟨rfl, hw1⟩; obtain rfl : w = w1 := hw1.symm; rw [HM.out]) | (at_make; refine wpList_makeV _ rfl _ _ 29 rfl 4 (.bool false) 1 Tryd.underlying29 (by kernel_rfl) rfl _ _ (s.size + 1) rfl rfl (by omega) (by omega) (by omega) (by unfold maxLen; omega) ?_))
    intro w1 g hg hsz1 hV hb1
    have HV := Lib.hid hV; clear hV
    have c0 := HV.out.cell (k := 0) (by omega)
    have f0 := HV.out.frozen 0
    have hbs := hb1.size
    go_wp2
    have HV0 : Hid (VR (w1.setCell ⟨g, 0, none⟩ (.bool true)) g (s.size + 1) (fun j => .bool (dpF p.data.toList s.data.toList 0 j))) := Lib.hid ((HV.out.set (k := 0) (.bool true)).congr fun j hj => by
      show (if j = 0 then Value.bool true else Value.bool false) = _
      rw [dpF_start _ _ _ (by rw [str_len]; omega)]
      by_cases h : j = 0 <;> simp [h])
    clear HV c0 f0
    go_loopw [5, 6] (fun at_ i wr => ∃ (a g : Nat), a ≤ p.size ∧ w.heap.size ≤ g ∧ g < wr.heap.size ∧ Below w.heap.size w wr ∧ Hid (VR wr g (s.size + 1) (fun j => .bool (dpF p.data.toList s.data.toList a j))) ∧ at_ = .slice (some ⟨g, 0, none⟩) (s.size + 1) (s.size + 1) ∧ i = .int .i64 a) (fun _ i _ => p.size - (intOf i).toNat)
    case atStart => exact ⟨0, g, by omega, hg, by rw [World.size_setCell]; omega, hb1.setCell hg _, HV0, rfl, rfl⟩
    case round =>
      clear HV0
      obtain ⟨a, g, ha, hg, hgl, hbel, HG, rfl, rfl⟩ := hrel
      have hzR := hbel.size
      by_cases hlt : a < p.size
      · obtain ⟨c, hc⟩ : ∃ c, p[a] = c := ⟨_, rfl⟩
        have hgc := str_get hlt
        rw [hc] at hgc
        have HC := Lib.hid hgc; clear hgc
        go_wp2_with (at_make; refine wpList_makeV _ rfl _ _ 29 rfl 4 (.bool false) 1 Tryd.underlying29 (by kernel_rfl) rfl _ _ (s.size + 1) rfl rfl (by omega) (by omega) (by omega) (by unfold maxLen; omega) ?_)
        intro w2 h hh hsz2 hV hb2
        have HG2 : Hid (VR w2 g (s.size + 1) (fun j => .bool (dpF p.data.toList s.data.toList a j))) := Lib.hid (HG.out.below hb2 hgl)
        have HH : Hid (VR w2 h (s.size + 1) (fillF p.data.toList s.data.toList a 0)) := Lib.hid (hV.congr fun j _ => by unfold fillF; rw [decide_eq_false (Nat.not_lt_zero j)]; rfl)
        have hbel2 : Below w.heap.size w w2 := hbel.trans (hb2.mono hzR)
        clear HG hV hb2
        go_wp2
        go_loopw [8] (fun i wr => ∃ k : Nat, k ≤ s.size + 1 ∧ h < wr.heap.size ∧ Below w.heap.size w wr ∧ Hid (VR wr g (s.size + 1) (fun j => .bool (dpF p.data.toList s.data.toList a j))) ∧ Hid (VR wr h (s.size + 1) (fillF p.data.toList s.data.toList a k)) ∧ i = .int .i64 k) (fun i _ => s.size + 1 - (intOf i).toNat)
        case atStart => exact ⟨0, by omega, by omega, hbel2, HG2, HH, rfl⟩
        case round =>
          clear HG2 HH hbel2
          obtain ⟨k, hk, hhl, hbel3, HG, HH, rfl⟩ := hrel
          have hgh : g ≠ h := by omega
          by_cases hkl : k ≤ s.size
          · have fh := HH.out.frozen k
            have ch := HH.out.cell (k := k) (by omega)
            by_cases h42 : c = 42
            · subst h42
              obtain ⟨x, hx⟩ : ∃ x, dpF p.data.toList s.data.toList a k = x := ⟨_, rfl⟩
              have cg := HG.out.cell (k := k) (by omega)
              simp only [hx] at cg
              by_cases hk0 : k = 0
              · subst hk0
                have HS : Hid (dpF p.data.toList s.data.toList (a + 1) 0 = x) := Lib.hid (by rw [dpF_star HC.out (by omega), hx]; simp)
                clear hx
                cases x
                all_goals
                  go_wp2
                  go_roundw
                  case rel => exact ⟨1, by omega, by rw [World.size_setCell]; omega, hbel3.setCell (by show _ ≤ h; omega) _, Lib.hid (HG.out.other hgh _), Lib.hid (fill_set HH.out HS.out), by go_num⟩
                  case measure => (simp [intOf]) <;> omega
              · obtain ⟨m, rfl⟩ : ∃ m, k = m + 1 := ⟨k - 1, by omega⟩
                obtain ⟨y, hy⟩ : ∃ y, dpF p.data.toList s.data.toList (a + 1) m = y := ⟨_, rfl⟩
                have cm := HH.out.cell (k := m) (by omega)
                unfold fillF at cm
                rw [decide_eq_true (show m < m + 1 by omega), hy, Bool.true_and] at cm
                have HS : Hid (dpF p.data.toList s.data.toList (a + 1) (m + 1) = (x || y)) := Lib.hid (by
                  rw [dpF_star HC.out (by rw [str_len]; omega), hx, Nat.add_sub_cancel, hy, decide_eq_true (show 0 < m + 1 by omega), Bool.true_and])
                clear hx hy
                cases x <;> cases y
                all_goals
                  go_wp2
                  go_roundw
                  case rel => exact ⟨m + 2, by omega, by rw [World.size_setCell]; omega, hbel3.setCell (by show _ ≤ h; omega) _, Lib.hid (HG.out.other hgh _), Lib.hid (fill_set HH.out HS.out), by go_num⟩
                  case measure => (simp [intOf]) <;> omega
            · have e42 : ((c.toNat : Int) == 42) = false := byte_ne (n := 42) (by decide) h42
              by_cases hk0 : k = 0
              · subst hk0
                have HS : Hid (dpF p.data.toList s.data.toList (a + 1) 0 = false) := Lib.hid (dpF_one0 HC.out h42)
                go_wp2
                go_region
                all_goals go_wp2
                go_roundw
                case rel => exact ⟨1, by omega, by show h < (wr.setCell _ _).heap.size; rw [World.size_setCell]; omega, (hbel3.setCell (by show _ ≤ h; omega) _).drew, Lib.hid (HG.out.other hgh _), Lib.hid (fill_set HH.out HS.out), by go_num⟩
                case measure => (simp [intOf]) <;> omega
              · obtain ⟨m, rfl⟩ : ∃ m, k = m + 1 := ⟨k - 1, by omega⟩
                obtain ⟨z, hz⟩ : ∃ z, s[m] = z := ⟨_, rfl⟩
                have hgz := str_get (show m < s.size by omega)
                rw [hz] at hgz
                have HZ := Lib.hid hgz; clear hgz
                obtain ⟨x, hx⟩ : ∃ x, dpF p.data.toList s.data.toList a m = x := ⟨_, rfl⟩
                have cg := HG.out.cell (k := m) (by omega)
                simp only [hx] at cg
                have HD : Hid (dpF p.data.toList s.data.toList (a + 1) (m + 1) = (x && (c == 63 || c == z))) := Lib.hid (by rw [dpF_one HC.out h42 HZ.out, hx])
                clear hx
                cases x
                · have HS : Hid (dpF p.data.toList s.data.toList (a + 1) (m + 1) = false) := Lib.hid (by rw [HD.out]; rfl)
                  go_wp2
                  go_region
                  all_goals go_wp2
                  go_roundw
                  case rel => exact ⟨m + 2, by omega, by show h < (wr.setCell _ _).heap.size; rw [World.size_setCell]; omega, (hbel3.setCell (by show _ ≤ h; omega) _).drew, Lib.hid (HG.out.other hgh _), Lib.hid (fill_set HH.out HS.out), by go_num⟩
                  case measure => (simp [intOf]) <;> omega
                · by_cases h63 : c = 63
                  · have HS : Hid (dpF p.data.toList s.data.toList (a + 1) (m + 1) = true) := Lib.hid (by rw [HD.out, h63]; rfl)
                    subst h63
                    go_wp2
                    go_region
                    all_goals go_wp2
                    go_roundw
                    case rel => exact ⟨m + 2, by omega, by show h < (wr.setCell _ _).heap.size; rw [World.size_setCell]; omega, (hbel3.setCell (by show _ ≤ h; omega) _).drew, Lib.hid (HG.out.other hgh _), Lib.hid (fill_set HH.out HS.out), by go_num⟩
                    case measure => (simp [intOf]) <;> omega
                  · have e63 : ((c.toNat : Int) == 63) = false := byte_ne (n := 63) (by decide) h63
                    by_cases hcz : c = z
                    · have HS : Hid (dpF p.data.toList s.data.toList (a + 1) (m + 1) = true) := Lib.hid (by rw [HD.out, hcz]; simp)
                      subst hcz
                      go_wp2
                      go_region
                      all_goals go_wp2
                      go_roundw
                      case rel => exact ⟨m + 2, by omega, by show h < (wr.setCell _ _).heap.size; rw [World.size_setCell]; omega, (hbel3.setCell (by show _ ≤ h; omega) _).drew, Lib.hid (HG.out.other hgh _), Lib.hid (fill_set HH.out HS.out), by go_num⟩
                      case measure => (simp [intOf]) <;> omega
                    · have HS : Hid (dpF p.data.toList s.data.toList (a + 1) (m + 1) = false) := Lib.hid (by rw [HD.out]; simp [h63, hcz])
                      have ecz : ((c.toNat : Int) == (z.toNat : Int)) = false := by
                        rw [beq_eq_false_iff_ne]; intro e; exact hcz (UInt8.toNat_inj.1 (by omega))
                      go_wp2
                      go_region
                      all_goals go_wp2
                      go_roundw
                      case rel => exact ⟨m + 2, by omega, by show h < (wr.setCell _ _).heap.size; rw [World.size_setCell]; omega, (hbel3.setCell (by show _ ≤ h; omega) _).drew, Lib.hid (HG.out.other hgh _), Lib.hid (fill_set HH.out HS.out), by go_num⟩
                      case measure => (simp [intOf]) <;> omega
          · go_wp2
            go_roundw
            case rel => exact ⟨a + 1, h, by omega, by omega, hhl, hbel3, Lib.hid (HH.out.congr fun j hj => by unfold fillF; rw [decide_eq_true (show j < k by omega)]; rfl), rfl, by go_num⟩
            case measure => (simp [intOf]) <;> omega
      · obtain ⟨x, hx⟩ : ∃ x, dpF p.data.toList s.data.toList a s.size = x := ⟨_, rfl⟩
        have cg := HG.out.cell (k := s.size) (by omega)
        simp only [hx] at cg
        have HS : Hid (gm p.data.toList s.data.toList = x) := Lib.hid (by
          rw [← dpF_end, str_len, str_len, show p.size = a by omega]; exact hx)
        go_wp2
        go_ret
        exact ⟨by rw [HR.out, HS.out]; first | done | rfl, hbel⟩
end Go.Proofs.YtohggmbnehgdiaaDoor
