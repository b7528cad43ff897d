/- Fronts; a store's Drop of what is not there; Under. -/
import Derived.Test.YtpledhipdiephaaDoorSt4
import Derived.BigRegion
import Derived.RegionTactic
import Derived.BigQuiet
import Derived.Deep.QuietTactic
import Derived.Deep.MidRow
import Derived.Deep.RegionLaw
import Derived.LoopTactic
import Derived.BigFrame
import Derived.OwnWalk
import Derived.OneCell
import Derived.Laws.OwnMore
import Derived.WalkKit
import Derived.ProofKit
import Derived.Handy
import Derived.Below
import Derived.Lib.Hide
import Derived.IntWalk
import Derived.Outline
import Derived.WalkLawsBesides
import Derived.WalkSpells
namespace Go.Proofs.YtpledhipdiephaaDoor
open Go.RowKit
attribute [local go_sem] strV
set_option linter.unusedVariables false
theorem less_front : ∀ (p x y : List UInt8), Op.bytesLess x p = false → Op.bytesLess x y = true → Lib.hasPrefix y p = true → Lib.hasPrefix x p = true
  | [], x, y => fun _ _ _ => by simp [Lib.hasPrefix]
  | a :: p, [], y => fun h _ _ => by cases h
  | a :: p, b :: x, [] => fun _ h _ => by cases h
  | a :: p, b :: x, c :: y => fun h1 h2 h3 => by
    unfold Lib.hasPrefix at h3 ⊢
    unfold Op.bytesLess at h1 h2
    simp only [List.isPrefixOf, Bool.and_eq_true, beq_iff_eq, Bool.or_eq_true, decide_eq_true_eq, Bool.or_eq_false_iff, decide_eq_false_iff_not, Bool.and_eq_false_iff] at h1 h2 h3 ⊢
    obtain ⟨rfl, h3⟩ := h3
    have hba : b = a := by
      rcases h2 with h2 | h2
      · exact absurd h2 h1.1
      · exact h2.1
    subst hba
    refine ⟨rfl, ?_⟩
    have h4 : Op.bytesLess x p = false := by
      rcases h1.2 with h | h
      · simp at h
      · exact h
    have h5 : Op.bytesLess x y = true := by
      rcases h2 with h2 | h2
      · exact absurd h2 h1.1
      · exact h2.2
    exact less_front p x y h4 h5 h3
theorem front_ge : ∀ (p x : List UInt8), Lib.hasPrefix x p = true → Op.bytesLess x p = false
  | [], x => fun _ => by cases x <;> rfl
  | a :: p, [] => fun h => by simp [Lib.hasPrefix, List.isPrefixOf] at h
  | a :: p, b :: x => fun h => by
    unfold Lib.hasPrefix at h
    simp only [List.isPrefixOf, Bool.and_eq_true, beq_iff_eq] at h
    obtain ⟨rfl, h⟩ := h
    unfold Op.bytesLess
    simp [front_ge p x h, UInt8.lt_irrefl]
def preB (front : ByteArray) (p : Pr) : Bool := Lib.hasPrefix p.k.data.toList front.data.toList
/-- The pairs under a front. -/
def underL (l : List Pr) (front : ByteArray) : List Pr := l.filter (preB front)
theorem under_before {l : List Pr} {front : ByteArray} {i : Nat} (hi : i < l.length) (h : lessK l[i].k front = true) : preB front l[i] = false := by
  cases hp : preB front l[i] with
  | false => rfl
  | true => have := front_ge _ _ hp; unfold lessK at h; rw [h] at this; cases this
theorem under_after {l : List Pr} {front : ByteArray} (hso : sortedL l) {i j : Nat} (hi : i < l.length) (hj : j < l.length) (hij : i < j) (h1 : lessK l[i].k front = false) (h2 : preB front l[i] = false) : preB front l[j] = false := by
  cases hp : preB front l[j] with
  | false => rfl
  | true =>
    have := less_front _ _ _ h1 (hso i j _ _ hij (List.getElem?_eq_getElem hi) (List.getElem?_eq_getElem hj)) hp
    unfold preB at h2
    rw [h2] at this; cases this
theorem filter_take_all {l : List Pr} {q : Pr → Bool} {i : Nat} (h : ∀ (j : Nat) (hj : j < l.length), i ≤ j → q l[j] = false) : (l.take i).filter q = l.filter q := by
  conv => rhs; rw [← List.take_append_drop i l, List.filter_append]
  have : (l.drop i).filter q = [] := List.filter_eq_nil_iff.2 (fun p hp => by
    obtain ⟨j, hj, rfl⟩ := List.getElem_of_mem hp
    rw [List.length_drop] at hj
    rw [List.getElem_drop, h (i + j) (by omega) (by omega)]; exact Bool.false_ne_true)
  rw [this, List.append_nil]
theorem filter_take_none {l : List Pr} {q : Pr → Bool} {i : Nat} (h : ∀ (j : Nat) (hj : j < l.length), j < i → q l[j] = false) : (l.take i).filter q = [] :=
  List.filter_eq_nil_iff.2 (fun p hp => by
    obtain ⟨j, hj, rfl⟩ := List.getElem_of_mem hp
    rw [List.length_take] at hj
    rw [List.getElem_take, h j (by omega) (by omega)]; exact Bool.false_ne_true)
theorem place_ge {l : List Pr} {front : ByteArray} (hso : sortedL l) {j : Nat} (hj : j < l.length) (h : placeL l front ≤ j) : lessK l[j].k front = false := by
  have hp : placeL l front < l.length := by omega
  have h0 := place_not hp
  rcases Nat.eq_or_lt_of_le h with h1 | h1
  · subst h1; exact h0
  · cases h2 : lessK l[j].k front with
    | false => rfl
    | true =>
      have h3 := lessK_trans (hso _ j _ _ h1 (List.getElem?_eq_getElem hp) (List.getElem?_eq_getElem hj)) h2
      rw [h0] at h3; cases h3
set_option maxRecDepth 100000 in
set_option maxHeartbeats 1600000 in
theorem dropNone_any (g : Nat) (l : List Pr) (key : ByteArray) (w : World) (h : StAt w g l) (hn6 : l.length ≤ 100000) (hf : foundL l key = false) :
    Calls Tryd.prog 15 #[.pointer (some ⟨g, 0, none⟩), .string key] w fun e w' => e = .returned (.bool false) ∧ Below w.heap.size w w' := by
  obtain ⟨hgd, a, cap, hg, hown⟩ := h
  obtain ⟨a9, cap9, hv9, hr, hcap, hcm, hnone⟩ := own_sliceN hown
  simp only [Value.slice.injEq, true_and] at hv9
  obtain ⟨rfl, rfl⟩ := hv9
  have CF := find_any g a l.length cap l key w hg hr rfl hcap hcm (by omega) (goodL_sorted hgd)
  rw [hf] at CF
  go_enter Tryd.func15, Tryd.ntmps15
  go_wp2_with (go_at_call 49; refine CF.mono ?_; rintro e w2 ⟨rfl, hb⟩)
  go_ret
  exact ⟨by first | rfl | simp, hb⟩
set_option maxRecDepth 100000 in
set_option maxHeartbeats 6400000 in
theorem under_any (g : Nat) (l : List Pr) (front : ByteArray) (w : World) (h : StAt w g l) (hn6 : l.length ≤ 100000) :
    Calls Tryd.prog 29 #[.pointer (some ⟨g, 0, none⟩), .string front] w fun e w' => ∃ v, e = .returned v ∧ w'.ownsRow w.heap.size 41 2 v (underL l front).length ((underL l front).flatMap Pr.cells) ∧ Below w.heap.size w w' := by
  have hgl := h.lt
  obtain ⟨hgd, a, cap, hg, hown⟩ := h
  obtain ⟨a9, cap9, hv9, hr, hcap, hcm, hnone⟩ := own_sliceN hown
  simp only [Value.slice.injEq, true_and] at hv9
  obtain ⟨rfl, rfl⟩ := hv9
  have hso := goodL_sorted hgd
  have CF := find_any g a l.length cap l front w hg hr rfl hcap hcm (by omega) hso
  obtain ⟨i0, hi0, hz0, hzs, hzb⟩ := info_parts Tryd.infoPr
  have hpl : placeL l front ≤ l.length := List.findIdx_le_length
  have HB : Hid (∀ (j : Nat) (hj : j < l.length), j < placeL l front → preB front l[j] = false) := Lib.hid (fun j hj hlt => by
    obtain ⟨h1, h2⟩ := place_less (l := l) (key := front) hlt
    exact under_before hj h2)
  have HG : Hid (∀ (j : Nat) (hj : j < l.length), placeL l front ≤ j → lessK l[j].k front = false) := Lib.hid (fun j hj hle => place_ge hso hj hle)
  have HSO := Lib.hid hso
  obtain ⟨p0, hp0⟩ : ∃ p, placeL l front = p := ⟨_, rfl⟩
  rw [hp0] at CF hpl HB HG
  obtain ⟨fd, hfd⟩ : ∃ p, foundL l front = p := ⟨_, rfl⟩
  rw [hfd] at CF
  obtain ⟨n, hn⟩ : ∃ n, l.length = n := ⟨_, rfl⟩
  rw [hn] at hg hown hcap hn6 hpl hnone
  have HN := Lib.hid hn
  clear hn hp0 hfd hso
  unfold maxLen at hcm
  have n0 : (0 : Int) ≤ (p0 : Int) := by omega
  have n1 : (p0 : Int) ≤ (n : Int) := by omega
  have n2 : ((p0 : Nat) : Int).toNat = p0 := by omega
  have n3 : (p0 : Int) ≤ (cap : Int) := by omega
  go_enter Tryd.func29, Tryd.ntmps29
  go_upto_region 3 with (go_at_call 49; refine CF.mono ?_; rintro e w2 ⟨rfl, hb2⟩)
  have c0 : w2.cell? ⟨g, 0, none⟩ = some (.slice a n cap) := cell_heap (cells_of hg hb2 hgl) 0
  go_cut [21, 22, 23] from 16 to 36 (fun v m z wx => (∃ A C, v = .slice A (n - p0) C ∧ m = .int .i64 ((n - p0 : Nat) : Int) ∧ z = .int .i64 0 ∧ ∀ b off, a = some ⟨b, off, none⟩ → p0 < n → A = some ⟨b, off + p0 * 2, none⟩) ∧ wx = w2)
  case first =>
    cases a with
    | none =>
      obtain ⟨rfl, rfl⟩ := hnone rfl
      obtain rfl : p0 = 0 := by omega
      go_wp2
      go_meet
      exact ⟨⟨_, _, rfl, rfl, rfl, fun b off h => by cases h⟩, rfl⟩
    | some ad =>
      obtain ⟨gr, hgr⟩ : ∃ g, ad = ⟨g, 0, none⟩ := by
        rcases hown.2 with ⟨h1, _⟩ | ⟨g', cap', cur, h1, _⟩
        · cases h1
        · simp only [Value.slice.injEq, Option.some.injEq] at h1
          exact ⟨_, h1.1⟩
      subst hgr
      by_cases hc : cap = p0
      · obtain rfl : n = p0 := by omega
        subst hc
        go_wp2
        go_meet
        exact ⟨⟨some ⟨gr, 0, none⟩, 0, by simp, by simp, rfl, fun b off h h2 => by omega⟩, rfl⟩
      · go_wp2
        go_meet
        refine ⟨⟨_, _, rfl, rfl, rfl, fun b off h h2 => ?_⟩, rfl⟩
        simp only [Option.some.injEq, Addr.mk.injEq, and_true] at h
        obtain ⟨rfl, rfl⟩ := h
        first | rfl | rw [Nat.zero_add]
  case rest =>
    obtain ⟨⟨A, C, rfl, rfl, rfl, hA⟩, rfl⟩ := hcut
    have hE : Hid (underL (l.take p0) front = []) := Lib.hid (filter_take_none (fun j hj h => HB.out j hj h))
    go_upto_region 4 with fail
    go_loopw [5, 23] (fun v i wr => ∃ k : Nat, k ≤ n - p0 ∧ i = .int .i64 k ∧ wr.ownsRow w.heap.size 41 2 v (underL (l.take (p0 + k)) front).length ((underL (l.take (p0 + k)) front).flatMap Pr.cells) ∧ Below w.heap.size w wr) (fun _ i _ => n - p0 - (intOf i).toNat)
    case atStart => exact ⟨0, Nat.zero_le _, rfl, by rw [Nat.add_zero, hE.out]; exact World.ownsRow_nil _ _ _ _, hb2⟩
    case round =>
      rename_i sv _ _
      obtain ⟨k, hk, rfl, hown9, hbel⟩ := hrel
      by_cases hlt : k < n - p0
      rotate_left
      · obtain rfl : k = n - p0 := by omega
        have d9 : decide (((n - p0 : Nat) : Int) < ((n - p0 : Nat) : Int)) = false := decide_eq_false (by omega)
        have d9n : decide (n - p0 < n - p0) = false := decide_eq_false hlt
        rw [List.take_of_length_le (by rw [HN.out]; omega)] at hown9
        obtain ⟨a9, c9, rfl, _⟩ := own_sliceH hown9
        go_wp2
        go_ret
        exact ⟨_, rfl, hown9, hbel⟩
      have d9 : decide ((k : Int) < ((n - p0 : Nat) : Int)) = true := decide_eq_true (by omega)
      have d9n : decide (k < n - p0) = true := decide_eq_true hlt
      have hkl : p0 + k < l.length := by rw [HN.out]; omega
      have hrw := hr.below hbel
      obtain ⟨b1, o1, ha1, hb1, hg1⟩ := pr_range hrw hkl
      obtain rfl := hA b1 o1 ha1 (by omega)
      have HTK := Lib.hid (show underL (l.take (p0 + k + 1)) front = underL (l.take (p0 + k)) front ++ (if preB front l[p0 + k] = true then [l[p0 + k]] else []) by
        unfold underL
        rw [List.take_succ_eq_append_getElem hkl, List.filter_append]
        congr 1
        by_cases h : preB front l[p0 + k] = true
        · rw [if_pos h]; simp [h]
        · rw [if_neg h]; simp [h])
      have HAF := Lib.hid (show preB front l[p0 + k] = false → underL (l.take (p0 + k)) front = underL l front from fun h => filter_take_all (fun j hj hle => by
        rcases Nat.eq_or_lt_of_le hle with h1 | h1
        · subst h1; exact h
        · exact under_after HSO.out hkl hj h1 (HG.out _ hkl (by omega)) h))
      obtain ⟨⟨pk, pv⟩, hp9⟩ : ∃ p, l[p0 + k] = p := ⟨_, rfl⟩
      rw [hp9] at hg1 HTK HAF
      have hq0 : wr.cell? ⟨b1, o1 + p0 * 2 + k * 2, none⟩ = some (.string pk) := by have := hg1 0 _ rfl; rw [show o1 + p0 * 2 + k * 2 = o1 + (p0 + k) * 2 + 0 by omega]; exact this
      have hq1 : wr.cell? ⟨b1, o1 + p0 * 2 + k * 2 + 1, none⟩ = some (.string pv) := by have := hg1 1 _ rfl; rw [show o1 + p0 * 2 + k * 2 + 1 = o1 + (p0 + k) * 2 + 1 by omega]; exact this
      have CH := fun W => Tryd.strings_HasPrefix pk front W
      obtain ⟨fit, hfit⟩ : ∃ b, Lib.hasPrefix pk.data.toList front.data.toList = b := ⟨_, rfl⟩
      have HPF := Lib.hid (show preB front ⟨pk, pv⟩ = fit from hfit)
      simp only [hfit] at CH
      clear hfit hp9 hg1
      have m0 : (0 : Int) ≤ (k : Int) := by omega
      have m1 : (k : Int) < ((n - p0 : Nat) : Int) := by omega
      have m2 : ((k : Nat) : Int).toNat = k := by omega
      obtain ⟨U, hU⟩ : ∃ U, underL (l.take (p0 + k)) front = U := ⟨_, rfl⟩
      rw [hU] at hown9 HTK HAF
      have hUl : U.length ≤ 100000 := by rw [← hU]; unfold underL; have h1 := List.length_filter_le (preB front) (l.take (p0 + k)); rw [List.length_take] at h1; omega
      clear hU
      go_upto_region 6 with fail
      cases fit
      · go_wp2_with (go_at_call 60; refine (CH _).mono ?_; rintro e w3 ⟨rfl, rfl⟩)
        obtain ⟨a9, c9, rfl, _⟩ := own_sliceH hown9
        go_ret
        have hU := HAF.out HPF.out
        rw [← hU]
        exact ⟨_, rfl, hown9.alloc _, hbel.alloc hbel.size _⟩
      · have hw2 := al2_below wr (.cells #[.string pk, .string pv] 41) (.cells #[.string pk, .string pv] 41)
        have hq2 := al2_1 wr (.cells #[.string pk, .string pv] 41) (.cells #[.string pk, .string pv] 41)
        have hbs := hbel.size
        have hbq : w.heap.size ≤ ((wr.alloc (.cells #[.string pk, .string pv] 41)).alloc (.cells #[.string pk, .string pv] 41)).heap.size := Nat.le_trans hbs hw2.size
        have hownQ := (hown9.alloc (.cells #[.string pk, .string pv] 41)).alloc (.cells #[.string pk, .string pv] 41)
        go_wp2_with (first | (go_at_call 60; refine (CH _).mono ?_; rintro e w3 ⟨rfl, rfl⟩) | (at_builtin; refine wpList_append_own_at _ rfl (.tmp 32) (.tmp 34) 39 rfl w.heap.size 41 i0 (.agg #[.string ⟨#[]⟩, .string ⟨#[]⟩]) 2 32 Tryd.underlying39 hi0 hz0 hzs hzb rfl (by decide) _ _ _ rfl hownQ ⟨wr.heap.size + 1, 0, none⟩ 1 1 [.string pk, .string pv] rfl rfl (fun j u hu => by rw [Addr.add_lit, Nat.zero_add, cell_heap hq2]; simpa using hu) (fun u hu => by simp at hu; rcases hu with rfl | rfl <;> rfl) (by unfold maxLen; omega) (by omega) hbq ?_; intro v2 w9 hown8 hgr9 _ hat9))
        go_roundw
        case rel =>
          refine ⟨k + 1, by omega, by go_num, ?_, (hbel.trans (hw2.mono hbs)).trans (below_grown hownQ hgr9 hbq)⟩
          rw [← Nat.add_assoc, HTK.out, HPF.out]
          simp only [if_true, List.length_append, List.length_singleton, List.flatMap_append]
          exact hown8
        case measure => (simp [intOf]) <;> omega
end Go.Proofs.YtpledhipdiephaaDoor
