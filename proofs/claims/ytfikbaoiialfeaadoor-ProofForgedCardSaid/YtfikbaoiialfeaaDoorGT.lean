/- Ways and folds: the math. The hashes beside a leaf's path: tree.Way. The top out of a leaf and its way: tree.fold, tree.Fold; lists of hashes that are the same. tree.Fold; lists of hashes that are the same. The document's trees: Half, Node, Top, Way, Deep. -/
import Derived.Test.YtfikbaoiialfeaaDoorTop
import Derived.Test.YtfikbaoiialfeaaDoorGG
import Derived.Test.YtfikbaoiialfeaaDoorTreeGrows
import Derived.WalkKit
import Derived.ProofKit
import Derived.Handy
import Derived.Below
import Derived.Lib.Hide
import Derived.IntWalk
import Derived.Outline
import Derived.WalkLawsBesides
import Derived.WalkSpells
import Derived.Test.YtfikbaoiialfeaaDoorRefSum
import Derived.Test.YtfikbaoiialfeaaDoorGF
import Derived.Deep.Cut
namespace Go.Proofs.YtfikbaoiialfeaaDoor
open Go.RowKit
set_option linter.unusedVariables false
/-- The hashes beside the path from leaf i to the top, the lowest one first. -/
def wayH (l : List H32) (i : Nat) : List H32 :=
  if h : 2 ≤ l.length ∧ i < l.length then
    (if i < halfN l.length then wayH (l.take (halfN l.length)) i ++ [topH (l.drop (halfN l.length))] else wayH (l.drop (halfN l.length)) (i - halfN l.length) ++ [topH (l.take (halfN l.length))])
  else []
termination_by l.length
decreasing_by
  · rw [List.length_take]; have := halfN_lt h.1; omega
  · rw [List.length_drop]; have := halfN_pos l.length; omega
theorem wayH_none {l : List H32} {i : Nat} (h : ¬ (2 ≤ l.length ∧ i < l.length)) : wayH l i = [] := by rw [wayH, dif_neg h]
theorem wayH_left {l : List H32} {i : Nat} (h : 2 ≤ l.length) (hi : i < halfN l.length) : wayH l i = wayH (l.take (halfN l.length)) i ++ [topH (l.drop (halfN l.length))] := by
  have := halfN_lt h
  conv => lhs; rw [wayH]
  rw [dif_pos ⟨h, by omega⟩, if_pos hi]
theorem wayH_right {l : List H32} {i : Nat} (h : 2 ≤ l.length) (h2 : i < l.length) (hi : ¬ i < halfN l.length) : wayH l i = wayH (l.drop (halfN l.length)) (i - halfN l.length) ++ [topH (l.take (halfN l.length))] := by
  conv => lhs; rw [wayH]
  rw [dif_pos ⟨h, h2⟩, if_neg hi]
/-- The top out of a leaf and its way. -/
def foldH (n i : Nat) (x : H32) (w : List H32) : H32 :=
  if h : 2 ≤ n then (if i < halfN n then nodeH (foldH (halfN n) i x w.dropLast) (w.getLastD zeroH) else nodeH (w.getLastD zeroH) (foldH (n - halfN n) (i - halfN n) x w.dropLast)) else x
termination_by n
decreasing_by
  · exact halfN_lt h
  · have := halfN_pos n; omega
theorem foldH_one {n : Nat} (h : n < 2) (i : Nat) (x : H32) (w : List H32) : foldH n i x w = x := by rw [foldH, dif_neg (by omega)]
theorem foldH_left {n i : Nat} (h : 2 ≤ n) (hi : i < halfN n) (x : H32) (w : List H32) : foldH n i x w = nodeH (foldH (halfN n) i x w.dropLast) (w.getLastD zeroH) := by
  conv => lhs; rw [foldH]
  rw [dif_pos h, if_pos hi]
theorem foldH_right {n i : Nat} (h : 2 ≤ n) (hi : ¬ i < halfN n) (x : H32) (w : List H32) : foldH n i x w = nodeH (w.getLastD zeroH) (foldH (n - halfN n) (i - halfN n) x w.dropLast) := by
  conv => lhs; rw [foldH]
  rw [dif_pos h, if_neg hi]
theorem way_len : ∀ (m : Nat) (l : List H32) (i : Nat), l.length = m → i < m → (wayH l i).length = deepN m i := by
  intro m
  induction m using Nat.strongRecOn with
  | _ m ih =>
    intro l i hl hi
    by_cases h2 : 2 ≤ m
    · have h1 := halfN_lt h2
      have h0 := halfN_pos m
      by_cases hh : i < halfN m
      · rw [wayH_left (by omega) (by rw [hl]; exact hh), hl, List.length_append, deepN_left h2 hh, ih _ h1 (l.take (halfN m)) i (by rw [List.length_take]; omega) hh, List.length_singleton, Nat.add_comm]
      · rw [wayH_right (by omega) (by omega) (by rw [hl]; exact hh), hl, List.length_append, deepN_right h2 hh, ih (m - halfN m) (by omega) (l.drop (halfN m)) (i - halfN m) (by rw [List.length_drop]; omega) (by omega), List.length_singleton, Nat.add_comm]
    · rw [wayH_none (by omega), deepN_small (by omega)]; rfl
theorem way_set : ∀ (m : Nat) (l : List H32) (i : Nat) (x : H32), l.length = m → wayH (l.set i x) i = wayH l i := by
  intro m
  induction m using Nat.strongRecOn with
  | _ m ih =>
    intro l i x hl
    by_cases h2 : 2 ≤ m ∧ i < m
    · have h1 := halfN_lt h2.1
      have h0 := halfN_pos m
      by_cases hh : i < halfN m
      · rw [wayH_left (l := l.set i x) (by rw [List.length_set]; omega) (by rw [List.length_set, hl]; exact hh), wayH_left (l := l) (by omega) (by rw [hl]; exact hh), List.length_set, hl, List.take_set, ih _ h1 (l.take (halfN m)) i x (by rw [List.length_take]; omega), List.drop_set, if_pos hh]
      · rw [wayH_right (l := l.set i x) (by rw [List.length_set]; omega) (by rw [List.length_set]; omega) (by rw [List.length_set, hl]; exact hh), wayH_right (l := l) (by omega) (by omega) (by rw [hl]; exact hh), List.length_set, hl, List.drop_set, if_neg hh, ih (m - halfN m) (by omega) (l.drop (halfN m)) (i - halfN m) x (by rw [List.length_drop]; omega), List.take_set, List.set_eq_of_length_le (l := l.take (halfN m)) (by rw [List.length_take]; omega)]
    · rw [wayH_none (by rw [List.length_set]; omega), wayH_none (by omega)]
theorem fold_way : ∀ (m : Nat) (l : List H32) (i : Nat) (x : H32), l.length = m → i < m → foldH m i x (wayH l i) = topH (l.set i x) := by
  intro m
  induction m using Nat.strongRecOn with
  | _ m ih =>
    intro l i x hl hi
    by_cases h2 : 2 ≤ m
    · have h1 := halfN_lt h2
      have h0 := halfN_pos m
      by_cases hh : i < halfN m
      · rw [wayH_left (by omega) (by rw [hl]; exact hh), hl, foldH_left h2 hh, List.dropLast_concat, ih _ h1 (l.take (halfN m)) i x (by rw [List.length_take]; omega) hh, topH_two (l := l.set i x) (by rw [List.length_set]; omega), List.length_set, hl, List.take_set, List.drop_set, if_pos hh]
        simp
      · rw [wayH_right (by omega) (by omega) (by rw [hl]; exact hh), hl, foldH_right h2 hh, List.dropLast_concat, ih (m - halfN m) (by omega) (l.drop (halfN m)) (i - halfN m) x (by rw [List.length_drop]; omega) (by omega), topH_two (l := l.set i x) (by rw [List.length_set]; omega), List.length_set, hl, List.take_set, List.drop_set, if_neg hh, List.set_eq_of_length_le (l := l.take (halfN m)) (by rw [List.length_take]; omega)]
        simp
    · obtain rfl : m = 1 := by omega
      obtain rfl : i = 0 := by omega
      obtain ⟨q, rfl⟩ := List.length_eq_one_iff.1 hl
      rw [foldH_one (by omega), List.set_cons_zero, topH_one]
end Go.Proofs.YtfikbaoiialfeaaDoor
namespace Go.Proofs.YtfikbaoiialfeaaDoor
open Go.RowKit
attribute [local go_sem] strV
set_option linter.unusedVariables false

theorem Tryd.infoH : (Tryd.prog.info? 25).map (fun i => (i.zero, i.size, i.bytes)) = some (some (.agg #[.int .u8 0, .int .u8 0, .int .u8 0, .int .u8 0, .int .u8 0, .int .u8 0, .int .u8 0, .int .u8 0, .int .u8 0, .int .u8 0, .int .u8 0, .int .u8 0, .int .u8 0, .int .u8 0, .int .u8 0, .int .u8 0, .int .u8 0, .int .u8 0, .int .u8 0, .int .u8 0, .int .u8 0, .int .u8 0, .int .u8 0, .int .u8 0, .int .u8 0, .int .u8 0, .int .u8 0, .int .u8 0, .int .u8 0, .int .u8 0, .int .u8 0, .int .u8 0]), 32, 32) := by kernel_rfl
theorem row_newH (w : World) (cur : Array Value) (t : TypeId) : RowAt (w.alloc (.cells cur t)) (some ⟨w.heap.size, 0, none⟩) cur.toList :=
  .inr ⟨_, 0, rfl, by simp, fun j hj => by
    rw [Nat.zero_add, cell_heap (show (w.heap.push _)[w.heap.size]? = _ by rw [Array.getElem?_push_size]) j]
    simp⟩
theorem fold_set (l : List Value) : ∀ (k : Nat) (a : Array Value), k + l.length ≤ a.size → (l.zipIdx k).foldl (fun c x => c.setIfInBounds x.2 x.1) a = (a.toList.take k ++ l ++ a.toList.drop (k + l.length)).toArray := by
  induction l with
  | nil => intro k a _; simp
  | cons x l ih =>
    intro k a h
    rw [List.length_cons] at h
    rw [List.zipIdx_cons, List.foldl_cons, ih (k + 1) _ (by simp; omega)]
    simp only [Array.toList_setIfInBounds, List.length_cons]
    have hk : k < a.toList.length := by simp; omega
    rw [List.take_succ_eq_append_getElem (by rw [List.length_set]; exact hk), List.getElem_set_self, List.take_set, List.set_eq_of_length_le (by rw [List.length_take]; omega), List.drop_set, if_pos (by omega)]
    rw [show k + 1 + l.length = k + (l.length + 1) by omega]
    simp
theorem fold_row (zs cs : Array Value) (n : Nat) (h1 : cs.size = n) (h2 : zs.size = n) : Array.foldl (fun c x => c.setIfInBounds x.2 x.1) zs cs.zipIdx 0 n = cs := by
  subst h1
  have h3 : cs.zipIdx.size = cs.size := by simp
  rw [← h3, ← Array.foldl_toList, Array.toList_zipIdx, fold_set _ 0 zs (by simp; omega)]
  apply Array.ext'
  simp
  omega
theorem own_keptH {w w' : World} {base : Nat} {e : TypeId} {size n : Nat} {v : Value} {xs : List Value} (h : w.ownsRow base e size v n xs) (hb : Below w.heap.size w w') : w'.ownsRow base e size v n xs := by
  obtain ⟨h1, h2⟩ := h
  refine ⟨h1, ?_⟩
  rcases h2 with h | ⟨g, cap, cur, h3, h4, h5, h6⟩
  · exact .inl h
  · exact .inr ⟨g, cap, cur, h3, h4, (hb.block g (Array.getElem?_eq_some_iff.1 h5).1).trans h5, h6⟩
theorem own_lower {w : World} {base B : Nat} {e : TypeId} {size n : Nat} {v : Value} {xs : List Value} (h : w.ownsRow base e size v n xs) (hb : B ≤ base) : w.ownsRow B e size v n xs := by
  obtain ⟨h1, h2⟩ := h
  refine ⟨h1, ?_⟩
  rcases h2 with h | ⟨g, cap, cur, h3, h4, h5⟩
  · exact .inl h
  · exact .inr ⟨g, cap, cur, h3, Nat.le_trans hb h4, h5⟩
def Fact.own (B : Nat) (n : Nat) (xs : List Value) : Fact := ⟨fun v w => w.ownsRow B 25 32 v n xs, fun _ _ _ h hb => own_keptH h hb⟩
theorem H32.list (q : H32) : (hrow q.1).toList = q.cells := by rw [← H32.row]
theorem hs_one {l : List H32} : ∀ u ∈ l.flatMap H32.cells, u.oneCell' = true := fun u hu => by
  obtain ⟨q, _, hq⟩ := List.mem_flatMap.1 hu
  exact (Array.all_eq_true_iff_forall_mem.1 (hrow_one q.1)) u (by rw [← H32.row]; simpa using hq)
theorem hs_one1 {q : H32} : ∀ u ∈ q.cells, u.oneCell' = true := fun u hu =>
  (Array.all_eq_true_iff_forall_mem.1 (hrow_one q.1)) u (by rw [← H32.row]; simpa using hu)
def WayPost (w : World) (l : List H32) (i : Nat) (e : Ending) (w' : World) : Prop := ∃ v, e = .returned v ∧ w'.ownsRow w.heap.size 25 32 v (wayH l i).length ((wayH l i).flatMap H32.cells) ∧ Below w.heap.size w w'
set_option maxRecDepth 100000 in
set_option maxHeartbeats 8000000 in
theorem way_any : ∀ (m : Nat) (l : List H32) (i : Nat) (a : Option Addr) (cap : Nat) (w : World), l.length = m → i < m → m ≤ 1000000 → m ≤ cap → cap ≤ maxLen → RowAt w a (l.flatMap H32.cells) → SW w →
    Calls Tryd.prog 23 #[.slice a m cap, .int .i64 i] w (WayPost w l i) := by
  intro m
  induction m using Nat.strongRecOn with
  | _ m ih =>
  intro l i a cap w hl hi hm hcap hcm hr hW
  have d0 : decide ((i : Int) < 0) = false := decide_eq_false (by omega)
  have d1 : decide ((m : Int) ≤ (i : Int)) = false := decide_eq_false (by omega)
  have d1n : decide (m ≤ i) = false := decide_eq_false (by omega)
  rcases Nat.lt_or_ge m 2 with hm2 | hm2
  · obtain rfl : m = 1 := by omega
    obtain rfl : i = 0 := by omega
    have hw0 : wayH l 0 = [] := wayH_none (by omega)
    have HW0 := Lib.hid hw0
    clear hw0 ih
    go_enter Tryd.func23, Tryd.ntmps23
    go_wp2
    go_ret
    refine ⟨_, rfl, ?_, Below.refl _ _⟩
    rw [HW0.out]
    exact ⟨rfl, .inl ⟨rfl, rfl⟩⟩
  have d2 : ((m : Int) == 1) = false := beq_eq_false_iff_ne.2 (by omega)
  obtain ⟨b, off, rfl, hb, _⟩ := hs_at hr (k := 0) (by omega)
  have hr1 := hs_take hr (halfN l.length)
  have hr2 := hs_drop hr (halfN l.length)
  have CH := fun W : World => half_any m W hm2 (by omega)
  have hlt := halfN_lt hm2
  have hpos := halfN_pos m
  have hlen : (wayH l i).length ≤ 30 := by rw [way_len m l i hl hi]; exact deepN_30 (by omega)
  rw [hl] at hr1 hr2
  obtain ⟨i0, hi0, hz0', hz1, hz2⟩ := info_parts Tryd.infoH
  by_cases hh : i < halfN m
  · have hwl := wayH_left (l := l) (i := i) (by omega) (by rw [hl]; exact hh)
    rw [hl] at hwl
    have IH := fun W => ih (halfN m) hlt (l.take (halfN m)) i (some ⟨b, off, none⟩) cap W (by rw [List.length_take]; omega) hh (by omega) (by omega) hcm
    have CT := fun W => top_any (m - halfN m) (l.drop (halfN m)) (some ⟨b, off + halfN m * 32, none⟩) (cap - halfN m) W (by rw [List.length_drop]; omega) (by omega) (by omega) (by omega)
    obtain ⟨h, hhh⟩ : ∃ h, halfN m = h := ⟨_, rfl⟩
    simp only [hhh] at hr1 hr2 hwl CH hlt hpos hh IH CT
    obtain ⟨T2, hT2⟩ : ∃ T, topH (l.drop h) = T := ⟨_, rfl⟩
    simp only [hT2] at hwl CT
    have hwn : (wayH (l.take h) i).length + 1 ≤ 30 := by rw [hwl, List.length_append] at hlen; exact hlen
    have HWL := Lib.hid hwl
    have hrW := hr1
    have hrT := hr2
    clear hhh hT2 ih hwl hlen hr1 hr2
    have n1 : (0 : Int) ≤ (h : Int) := by omega
    have n2 : (h : Int) ≤ (cap : Int) := by omega
    have n3 : (h : Int) ≤ (m : Int) := by omega
    have n4 : (m : Int) ≤ (cap : Int) := by omega
    have n5 : ((h : Nat) : Int).toNat = h := by omega
    have n6 : h ≤ cap := by omega
    have n7 : h ≤ m := by omega
    have dd : decide ((i : Int) < (h : Int)) = true := decide_eq_true (by omega)
    have ddn : decide (i < h) = true := decide_eq_true hh
    go_enter Tryd.func23, Tryd.ntmps23
    go_upto_region 5 with (go_at_call 70; refine (CH _).mono ?_; rintro e w2 ⟨rfl, hb2⟩)
    have hbel := hb2
    have hrW := hrW.below hb2
    have hrT := hrT.below hb2
    have hW := hW.below hb2
    clear hb2 CH
    refine wp_region_facts_chain 10 (by decide) [Fact.eq (.slice (some ⟨b, off, none⟩) m cap), Fact.eq (.int .i64 h), Fact.eq (.slice (some ⟨b, off, none⟩) h cap), Fact.eq (.int .i64 i), Fact.own w.heap.size (wayH (l.take h) i).length ((wayH (l.take h) i).flatMap H32.cells), Fact.eq (.slice (some ⟨b, off, none⟩) m cap), Fact.eq (.int .i64 h), Fact.eq (.slice (some ⟨b, off + h * 32, none⟩) (m - h) (cap - h)), Fact.eq (.agg (hrow T2.1)), Fact.row (1) (T2.cells)] (by kernel_rfl) (by kernel_rfl) (by kernel_rfl) (by kernel_rfl) (by kernel_rfl) (by kernel_rfl) (by kernel_rfl) (fun x => by simp only [List.take_succ_cons, List.take_zero, fillFrom, Act.put, List.setIfInBounds_toArray, List.set_cons_succ, List.set_cons_zero]; rfl) ?_ ?_
    · refine ⟨?_, ?_, ?_, ?_, ?_, ?_, ?_, ?_, ?_, ?_, trivial⟩
      · intro x w' hbw hd
        clear hd
        go_wp2_with fail
        exact frPost_mk rfl (by repeat (first | assumption | exact Below.refl _ _ | refine bch ?_ (by assumption) | refine Below.alloc ?_ (by simp) _)) rfl
      · intro x w' hbw hd
        clear hd
        go_wp2_with fail
        exact frPost_mk rfl (by repeat (first | assumption | exact Below.refl _ _ | refine bch ?_ (by assumption) | refine Below.alloc ?_ (by simp) _)) rfl
      · intro x w' hbw hd
        have d0 : x 0 = .slice (some ⟨b, off, none⟩) m cap := hd 0 rfl
        have d1 : x 1 = .int .i64 h := hd 1 rfl
        clear hd
        go_wp2_with fail
        exact frPost_mk rfl (by repeat (first | assumption | exact Below.refl _ _ | refine bch ?_ (by assumption) | refine Below.alloc ?_ (by simp) _)) rfl
      · intro x w' hbw hd
        clear hd
        go_wp2_with fail
        exact frPost_mk rfl (by repeat (first | assumption | exact Below.refl _ _ | refine bch ?_ (by assumption) | refine Below.alloc ?_ (by simp) _)) rfl
      · intro x w' hbw hd
        have d2 : x 2 = .slice (some ⟨b, off, none⟩) h cap := hd 2 rfl
        have d3 : x 3 = .int .i64 i := hd 3 rfl
        clear hd
        have CC := IH w' (hrW.below hbw) (hW.below hbw)
        go_wp2_with (first | (go_at_call 23; refine CC.mono ?_; rintro e wx ⟨vx, rfl, hox, hbx⟩))
        exact frPost_mk rfl (by repeat (first | assumption | exact Below.refl _ _ | refine bch ?_ (by assumption) | refine Below.alloc ?_ (by simp) _)) (own_lower hox (Nat.le_trans hbel.size hbw.size))
      · intro x w' hbw hd
        clear hd
        go_wp2_with fail
        exact frPost_mk rfl (by repeat (first | assumption | exact Below.refl _ _ | refine bch ?_ (by assumption) | refine Below.alloc ?_ (by simp) _)) rfl
      · intro x w' hbw hd
        clear hd
        go_wp2_with fail
        exact frPost_mk rfl (by repeat (first | assumption | exact Below.refl _ _ | refine bch ?_ (by assumption) | refine Below.alloc ?_ (by simp) _)) rfl
      · intro x w' hbw hd
        have d5 : x 5 = .slice (some ⟨b, off, none⟩) m cap := hd 5 rfl
        have d6 : x 6 = .int .i64 h := hd 6 rfl
        clear hd
        go_wp2_with fail
        exact frPost_mk rfl (by repeat (first | assumption | exact Below.refl _ _ | refine bch ?_ (by assumption) | refine Below.alloc ?_ (by simp) _)) rfl
      · intro x w' hbw hd
        have d7 : x 7 = .slice (some ⟨b, off + h * 32, none⟩) (m - h) (cap - h) := hd 7 rfl
        clear hd
        have CC := CT w' (hrT.below hbw) (hW.below hbw)
        go_wp2_with (first | (go_at_call 20; refine (CC).mono ?_; rintro e wx ⟨rfl, hbx⟩))
        exact frPost_mk rfl (by repeat (first | assumption | exact Below.refl _ _ | refine bch ?_ (by assumption) | refine Below.alloc ?_ (by simp) _)) rfl
      · intro x w' hbw hd
        have d8 : x 8 = .agg (hrow T2.1) := hd 8 rfl
        clear hd
        have hsz : (hrow T2.1).size = 32 := by rw [hrow_size]; exact T2.2
        have hszL : (hrow T2.1).toList.length = 32 := by rw [H32.list]; exact H32.cells_len _
        go_wp2_with fail
        refine frPost_mk rfl (by repeat (first | assumption | exact Below.refl _ _ | refine bch ?_ (by assumption) | refine Below.alloc ?_ (by simp) _)) ?_; show (Fact.row (1) (T2.cells)).holds _ _; exact ⟨_, _, rfl, by rw [fold_row _ (hrow T2.1) 32 hsz (by rfl), ← H32.list]; exact row_newH _ _ _⟩
    · intro x w' hbw hall
      have ho := hall 4 (by decide)
      obtain ⟨a9, c9, hx9, hr9⟩ := (show (Fact.row (1) (T2.cells)).holds (x 9) w' from hall 9 (by decide))
      clear hall
      have ho : w'.ownsRow w.heap.size 25 32 (x 4) (wayH (l.take h) i).length ((wayH (l.take h) i).flatMap H32.cells) := ho
      have hbel := hbel.trans (hbw.mono hbel.size)
      rcases hr9 with hr9 | ⟨b9, o9, rfl, hb9, hc9⟩
      · have := H32.cells_len T2; rw [hr9] at this; cases this
      have hnews : ∀ j u, T2.cells[j]? = some u → w'.cell? ((⟨b9, o9, none⟩ : Addr).add j) = some u := fun j u hj => by
        rw [Addr.add_mid, hc9 j (List.getElem?_eq_some_iff.1 hj).1, hj]
      simp only [hx9, List.drop_succ_cons, List.drop_zero]
      go_wp2_with (at_builtin; refine wpList_append_own _ rfl (.tmp 29) (.tmp 34) 22 rfl w.heap.size 25 i0 (.agg #[.int .u8 0, .int .u8 0, .int .u8 0, .int .u8 0, .int .u8 0, .int .u8 0, .int .u8 0, .int .u8 0, .int .u8 0, .int .u8 0, .int .u8 0, .int .u8 0, .int .u8 0, .int .u8 0, .int .u8 0, .int .u8 0, .int .u8 0, .int .u8 0, .int .u8 0, .int .u8 0, .int .u8 0, .int .u8 0, .int .u8 0, .int .u8 0, .int .u8 0, .int .u8 0, .int .u8 0, .int .u8 0, .int .u8 0, .int .u8 0, .int .u8 0, .int .u8 0]) 32 32 Tryd.underlying22 hi0 hz0' hz1 hz2 rfl (by decide) (x 4) _ _ rfl ho ⟨b9, o9, none⟩ 1 c9 T2.cells rfl (by rw [H32.cells_len]) hnews hs_one1 (by unfold maxLen; omega) (by omega) hbel.size ?_)
      intro v9 w9 hown hgr _
      have hb9' : Below w.heap.size w' w9 := below_grown ho hgr hbel.size
      go_wp2
      go_ret
      refine ⟨_, rfl, ?_, hbel.trans hb9'⟩
      rw [HWL.out, List.length_append, List.flatMap_append, List.flatMap_cons, List.flatMap_nil, List.append_nil]
      exact hown
  · have hwl := wayH_right (l := l) (i := i) (by omega) (by omega) (by rw [hl]; exact hh)
    rw [hl] at hwl
    have IH := fun W => ih (m - halfN m) (by omega) (l.drop (halfN m)) (i - halfN m) (some ⟨b, off + halfN m * 32, none⟩) (cap - halfN m) W (by rw [List.length_drop]; omega) (by omega) (by omega) (by omega) (by omega)
    have CT := fun W => top_any (halfN m) (l.take (halfN m)) (some ⟨b, off, none⟩) cap W (by rw [List.length_take]; omega) (by omega) (by omega) hcm
    obtain ⟨h, hhh⟩ : ∃ h, halfN m = h := ⟨_, rfl⟩
    simp only [hhh] at hr1 hr2 hwl CH hlt hpos hh IH CT
    obtain ⟨j, hj⟩ : ∃ j, i - h = j := ⟨_, rfl⟩
    simp only [hj] at hwl IH
    obtain ⟨T2, hT2⟩ : ∃ T, topH (l.take h) = T := ⟨_, rfl⟩
    simp only [hT2] at hwl CT
    have hwn : (wayH (l.drop h) j).length + 1 ≤ 30 := by rw [hwl, List.length_append] at hlen; exact hlen
    have HWL := Lib.hid hwl
    have hrT := hr1
    have hrW := hr2
    clear hhh hT2 ih hwl hlen hr1 hr2
    have n1 : (0 : Int) ≤ (h : Int) := by omega
    have n2 : (h : Int) ≤ (cap : Int) := by omega
    have n3 : (h : Int) ≤ (m : Int) := by omega
    have n4 : (m : Int) ≤ (cap : Int) := by omega
    have n5 : ((h : Nat) : Int).toNat = h := by omega
    have n6 : h ≤ cap := by omega
    have n7 : h ≤ m := by omega
    have dd : decide ((i : Int) < (h : Int)) = false := decide_eq_false (by omega)
    have ddn : decide (i < h) = false := decide_eq_false hh
    go_enter Tryd.func23, Tryd.ntmps23
    go_upto_region 6 with (go_at_call 70; refine (CH _).mono ?_; rintro e w2 ⟨rfl, hb2⟩)
    have hbel := hb2
    have hrW := hrW.below hb2
    have hrT := hrT.below hb2
    have hW := hW.below hb2
    clear hb2 CH
    refine wp_region_facts_chain 12 (by decide) [Fact.eq (.slice (some ⟨b, off, none⟩) m cap), Fact.eq (.int .i64 h), Fact.eq (.slice (some ⟨b, off + h * 32, none⟩) (m - h) (cap - h)), Fact.eq (.int .i64 i), Fact.eq (.int .i64 h), Fact.eq (.int .i64 (j : Int)), Fact.own w.heap.size (wayH (l.drop h) j).length ((wayH (l.drop h) j).flatMap H32.cells), Fact.eq (.slice (some ⟨b, off, none⟩) m cap), Fact.eq (.int .i64 h), Fact.eq (.slice (some ⟨b, off, none⟩) h cap), Fact.eq (.agg (hrow T2.1)), Fact.row (1) (T2.cells)] (by kernel_rfl) (by kernel_rfl) (by kernel_rfl) (by kernel_rfl) (by kernel_rfl) (by kernel_rfl) (by kernel_rfl) (fun x => by simp only [List.take_succ_cons, List.take_zero, fillFrom, Act.put, List.setIfInBounds_toArray, List.set_cons_succ, List.set_cons_zero]; rfl) ?_ ?_
    · refine ⟨?_, ?_, ?_, ?_, ?_, ?_, ?_, ?_, ?_, ?_, ?_, ?_, trivial⟩
      · intro x w' hbw hd
        clear hd
        go_wp2_with fail
        exact frPost_mk rfl (by repeat (first | assumption | exact Below.refl _ _ | refine bch ?_ (by assumption) | refine Below.alloc ?_ (by simp) _)) rfl
      · intro x w' hbw hd
        clear hd
        go_wp2_with fail
        exact frPost_mk rfl (by repeat (first | assumption | exact Below.refl _ _ | refine bch ?_ (by assumption) | refine Below.alloc ?_ (by simp) _)) rfl
      · intro x w' hbw hd
        have d0 : x 0 = .slice (some ⟨b, off, none⟩) m cap := hd 0 rfl
        have d1 : x 1 = .int .i64 h := hd 1 rfl
        clear hd
        go_wp2_with fail
        exact frPost_mk rfl (by repeat (first | assumption | exact Below.refl _ _ | refine bch ?_ (by assumption) | refine Below.alloc ?_ (by simp) _)) rfl
      · intro x w' hbw hd
        clear hd
        go_wp2_with fail
        exact frPost_mk rfl (by repeat (first | assumption | exact Below.refl _ _ | refine bch ?_ (by assumption) | refine Below.alloc ?_ (by simp) _)) rfl
      · intro x w' hbw hd
        clear hd
        go_wp2_with fail
        exact frPost_mk rfl (by repeat (first | assumption | exact Below.refl _ _ | refine bch ?_ (by assumption) | refine Below.alloc ?_ (by simp) _)) rfl
      · intro x w' hbw hd
        have d3 : x 3 = .int .i64 i := hd 3 rfl
        have d4 : x 4 = .int .i64 h := hd 4 rfl
        clear hd
        have hsub : (i : Int) - (h : Int) = ((j : Nat) : Int) := by omega
        have hs1 : (0 : Int) ≤ (i : Int) - (h : Int) := by omega
        have hs2 : (i : Int) - (h : Int) ≤ 1000000 := by omega
        go_wp2_with fail
        exact frPost_mk rfl (by repeat (first | assumption | exact Below.refl _ _ | refine bch ?_ (by assumption) | refine Below.alloc ?_ (by simp) _)) (by show Value.int .i64 _ = Value.int .i64 _; first | rfl | rw [hsub])
      · intro x w' hbw hd
        have d2 : x 2 = .slice (some ⟨b, off + h * 32, none⟩) (m - h) (cap - h) := hd 2 rfl
        have d5 : x 5 = .int .i64 (j : Int) := hd 5 rfl
        clear hd
        have CC := IH w' (hrW.below hbw) (hW.below hbw)
        go_wp2_with (first | (go_at_call 23; refine CC.mono ?_; rintro e wx ⟨vx, rfl, hox, hbx⟩))
        exact frPost_mk rfl (by repeat (first | assumption | exact Below.refl _ _ | refine bch ?_ (by assumption) | refine Below.alloc ?_ (by simp) _)) (own_lower hox (Nat.le_trans hbel.size hbw.size))
      · intro x w' hbw hd
        clear hd
        go_wp2_with fail
        exact frPost_mk rfl (by repeat (first | assumption | exact Below.refl _ _ | refine bch ?_ (by assumption) | refine Below.alloc ?_ (by simp) _)) rfl
      · intro x w' hbw hd
        clear hd
        go_wp2_with fail
        exact frPost_mk rfl (by repeat (first | assumption | exact Below.refl _ _ | refine bch ?_ (by assumption) | refine Below.alloc ?_ (by simp) _)) rfl
      · intro x w' hbw hd
        have d7 : x 7 = .slice (some ⟨b, off, none⟩) m cap := hd 7 rfl
        have d8 : x 8 = .int .i64 h := hd 8 rfl
        clear hd
        go_wp2_with fail
        exact frPost_mk rfl (by repeat (first | assumption | exact Below.refl _ _ | refine bch ?_ (by assumption) | refine Below.alloc ?_ (by simp) _)) rfl
      · intro x w' hbw hd
        have d9 : x 9 = .slice (some ⟨b, off, none⟩) h cap := hd 9 rfl
        clear hd
        have CC := CT w' (hrT.below hbw) (hW.below hbw)
        go_wp2_with (first | (go_at_call 20; refine (CC).mono ?_; rintro e wx ⟨rfl, hbx⟩))
        exact frPost_mk rfl (by repeat (first | assumption | exact Below.refl _ _ | refine bch ?_ (by assumption) | refine Below.alloc ?_ (by simp) _)) rfl
      · intro x w' hbw hd
        have d10 : x 10 = .agg (hrow T2.1) := hd 10 rfl
        clear hd
        have hsz : (hrow T2.1).size = 32 := by rw [hrow_size]; exact T2.2
        have hszL : (hrow T2.1).toList.length = 32 := by rw [H32.list]; exact H32.cells_len _
        go_wp2_with fail
        refine frPost_mk rfl (by repeat (first | assumption | exact Below.refl _ _ | refine bch ?_ (by assumption) | refine Below.alloc ?_ (by simp) _)) ?_; show (Fact.row (1) (T2.cells)).holds _ _; exact ⟨_, _, rfl, by rw [fold_row _ (hrow T2.1) 32 hsz (by rfl), ← H32.list]; exact row_newH _ _ _⟩
    · intro x w' hbw hall
      have ho := hall 6 (by decide)
      obtain ⟨a9, c9, hx9, hr9⟩ := (show (Fact.row (1) (T2.cells)).holds (x 11) w' from hall 11 (by decide))
      clear hall
      have ho : w'.ownsRow w.heap.size 25 32 (x 6) (wayH (l.drop h) j).length ((wayH (l.drop h) j).flatMap H32.cells) := ho
      have hbel := hbel.trans (hbw.mono hbel.size)
      rcases hr9 with hr9 | ⟨b9, o9, rfl, hb9, hc9⟩
      · have := H32.cells_len T2; rw [hr9] at this; cases this
      have hnews : ∀ j u, T2.cells[j]? = some u → w'.cell? ((⟨b9, o9, none⟩ : Addr).add j) = some u := fun j u hj => by
        rw [Addr.add_mid, hc9 j (List.getElem?_eq_some_iff.1 hj).1, hj]
      simp only [hx9, List.drop_succ_cons, List.drop_zero]
      go_wp2_with (at_builtin; refine wpList_append_own _ rfl (.tmp 42) (.tmp 47) 22 rfl w.heap.size 25 i0 (.agg #[.int .u8 0, .int .u8 0, .int .u8 0, .int .u8 0, .int .u8 0, .int .u8 0, .int .u8 0, .int .u8 0, .int .u8 0, .int .u8 0, .int .u8 0, .int .u8 0, .int .u8 0, .int .u8 0, .int .u8 0, .int .u8 0, .int .u8 0, .int .u8 0, .int .u8 0, .int .u8 0, .int .u8 0, .int .u8 0, .int .u8 0, .int .u8 0, .int .u8 0, .int .u8 0, .int .u8 0, .int .u8 0, .int .u8 0, .int .u8 0, .int .u8 0, .int .u8 0]) 32 32 Tryd.underlying22 hi0 hz0' hz1 hz2 rfl (by decide) (x 6) _ _ rfl ho ⟨b9, o9, none⟩ 1 c9 T2.cells rfl (by rw [H32.cells_len]) hnews hs_one1 (by unfold maxLen; omega) (by omega) hbel.size ?_)
      intro v9 w9 hown hgr _
      have hb9' : Below w.heap.size w' w9 := below_grown ho hgr hbel.size
      go_wp2
      go_ret
      refine ⟨_, rfl, ?_, hbel.trans hb9'⟩
      rw [HWL.out, List.length_append, List.flatMap_append, List.flatMap_cons, List.flatMap_nil, List.append_nil]
      exact hown
end Go.Proofs.YtfikbaoiialfeaaDoor
namespace Go.Proofs.YtfikbaoiialfeaaDoor
open Go.RowKit
attribute [local go_sem] strV
set_option linter.unusedVariables false

def Fact.cell (B : Nat) : Fact := ⟨fun v w => ∃ g, v = .pointer (some ⟨g, 0, none⟩) ∧ B ≤ g ∧ w.heap[g]? = some (.cells #[Value.int .u8 0, Value.int .u8 0, Value.int .u8 0, Value.int .u8 0, Value.int .u8 0, Value.int .u8 0, Value.int .u8 0, Value.int .u8 0, Value.int .u8 0, Value.int .u8 0, Value.int .u8 0, Value.int .u8 0, Value.int .u8 0, Value.int .u8 0, Value.int .u8 0, Value.int .u8 0, Value.int .u8 0, Value.int .u8 0, Value.int .u8 0, Value.int .u8 0, Value.int .u8 0, Value.int .u8 0, Value.int .u8 0, Value.int .u8 0, Value.int .u8 0, Value.int .u8 0, Value.int .u8 0, Value.int .u8 0, Value.int .u8 0, Value.int .u8 0, Value.int .u8 0, Value.int .u8 0] 25 (0, 0)),
  fun _ _ _ ⟨g, h1, h2, h3⟩ hb => ⟨g, h1, h2, (hb.block g (Array.getElem?_eq_some_iff.1 h3).1).trans h3⟩⟩
theorem heap_pushF (w : World) (cur : Array Value) (e : TypeId) : (w.alloc (.cells cur e)).heap[w.heap.size]? = some (.cells cur e (0, 0)) := by
  show (w.heap.push _)[w.heap.size]? = _
  rw [Array.getElem?_push_size]
theorem hrow_range {w : World} {b : Nat} {q : H32} {e : TypeId} {fz : Nat × Nat} (h : w.heap[b]? = some (.cells (hrow q.1) e fz)) : w.rangeAt b 0 q.cells := by
  have := rangeAt_row5 h
  rw [H32.list] at this
  exact this
theorem hash_info (q : H32) : (Tryd.prog.info? 25).map (·.size) = some q.cells.length := by rw [H32.cells_len]; kernel_rfl
set_option maxRecDepth 100000 in
set_option maxHeartbeats 1000000 in
theorem fold_any : ∀ (n i : Nat) (z : H32) (wy : List H32) (a : Option Addr) (k cap : Nat) (w : World), i < n → n ≤ 1073741824 → wy.length = deepN n i → wy.length = k → k ≤ cap → cap ≤ maxLen → RowAt w a (wy.flatMap H32.cells) → SW w →
    Calls Tryd.prog 63 #[.int .i64 n, .int .i64 i, .agg (hrow z.1), .slice a k cap] w fun e w' => e = .returned (.agg (hrow (foldH n i z wy).1)) ∧ Below w.heap.size w w' := by
  intro n
  induction n using Nat.strongRecOn with
  | _ n ih =>
  intro i z wy a k cap w hi hn3 hd hk hcap hcm hr hW
  have hq : (hrow z.1).size = 32 := by rw [hrow_size]; exact z.2
  have hqone := hrow_one z.1
  have g0 := al2_0 w (.cells (hrow z.1) 25) (.cells #[Value.int .u8 0, Value.int .u8 0, Value.int .u8 0, Value.int .u8 0, Value.int .u8 0, Value.int .u8 0, Value.int .u8 0, Value.int .u8 0, Value.int .u8 0, Value.int .u8 0, Value.int .u8 0, Value.int .u8 0, Value.int .u8 0, Value.int .u8 0, Value.int .u8 0, Value.int .u8 0, Value.int .u8 0, Value.int .u8 0, Value.int .u8 0, Value.int .u8 0, Value.int .u8 0, Value.int .u8 0, Value.int .u8 0, Value.int .u8 0, Value.int .u8 0, Value.int .u8 0, Value.int .u8 0, Value.int .u8 0, Value.int .u8 0, Value.int .u8 0, Value.int .u8 0, Value.int .u8 0] 25)
  have g9 := al2_1 w (.cells (hrow z.1) 25) (.cells #[Value.int .u8 0, Value.int .u8 0, Value.int .u8 0, Value.int .u8 0, Value.int .u8 0, Value.int .u8 0, Value.int .u8 0, Value.int .u8 0, Value.int .u8 0, Value.int .u8 0, Value.int .u8 0, Value.int .u8 0, Value.int .u8 0, Value.int .u8 0, Value.int .u8 0, Value.int .u8 0, Value.int .u8 0, Value.int .u8 0, Value.int .u8 0, Value.int .u8 0, Value.int .u8 0, Value.int .u8 0, Value.int .u8 0, Value.int .u8 0, Value.int .u8 0, Value.int .u8 0, Value.int .u8 0, Value.int .u8 0, Value.int .u8 0, Value.int .u8 0, Value.int .u8 0, Value.int .u8 0] 25)
  have hbA := al2_below w (.cells (hrow z.1) 25) (.cells #[Value.int .u8 0, Value.int .u8 0, Value.int .u8 0, Value.int .u8 0, Value.int .u8 0, Value.int .u8 0, Value.int .u8 0, Value.int .u8 0, Value.int .u8 0, Value.int .u8 0, Value.int .u8 0, Value.int .u8 0, Value.int .u8 0, Value.int .u8 0, Value.int .u8 0, Value.int .u8 0, Value.int .u8 0, Value.int .u8 0, Value.int .u8 0, Value.int .u8 0, Value.int .u8 0, Value.int .u8 0, Value.int .u8 0, Value.int .u8 0, Value.int .u8 0, Value.int .u8 0, Value.int .u8 0, Value.int .u8 0, Value.int .u8 0, Value.int .u8 0, Value.int .u8 0, Value.int .u8 0] 25)
  rcases Nat.lt_or_ge n 2 with hn2 | hn2
  · obtain rfl : n = 1 := by omega
    obtain rfl : i = 0 := by omega
    have HR : Hid ((foldH 1 0 z wy).1 = z.1) := Lib.hid (by rw [foldH_one (by omega)])
    clear ih
    go_enter Tryd.func63, Tryd.ntmps63
    go_upto_region 1 with fail
    refine wp_nameE _ (fun W1 hX => ?_)
    have y0 : W1.heap[w.heap.size]? = some (.cells (hrow z.1) 25 (0, 0)) := by rw [hX]; exact g0
    have y9 : W1.heap[w.heap.size + 1]? = some (.cells #[Value.int .u8 0, Value.int .u8 0, Value.int .u8 0, Value.int .u8 0, Value.int .u8 0, Value.int .u8 0, Value.int .u8 0, Value.int .u8 0, Value.int .u8 0, Value.int .u8 0, Value.int .u8 0, Value.int .u8 0, Value.int .u8 0, Value.int .u8 0, Value.int .u8 0, Value.int .u8 0, Value.int .u8 0, Value.int .u8 0, Value.int .u8 0, Value.int .u8 0, Value.int .u8 0, Value.int .u8 0, Value.int .u8 0, Value.int .u8 0, Value.int .u8 0, Value.int .u8 0, Value.int .u8 0, Value.int .u8 0, Value.int .u8 0, Value.int .u8 0, Value.int .u8 0, Value.int .u8 0] 25 (0, 0)) := by rw [hX]; exact g9
    have hbel : Below w.heap.size w W1 := by rw [hX]; exact hbA
    clear hX g0 g9 hbA
    have hrg := hrow_range y0
    go_wp2_with (first | (refine wpList_load_mid rfl 25 (.tmp 6) rfl w.heap.size 0 rfl z.cells _ hrg Tryd.underlying25 rfl (hash_info z) ?_; rw [H32.row]) | (refine wpList_storeRowTo (Z := hrow z.1) rfl (.tmp 8) (.tmp 15) 25 rfl (by rw [hq]; kernel_rfl) rfl (by rfl) y9 (by rw [hq]; rfl) hqone ?_))
    refine bodyPost_ret (v := .agg (hrow z.1)) ?_ rfl ?_
    · simp [results, Tryd.results63, asAddr]
      exact run_loadVar_row _ _ 25 25 _ (0, 0) _ (setRow_heap _ _ _ _ _ _ y9) Tryd.underlying25 rfl (by rw [hq]; kernel_rfl)
    exact ⟨by rw [HR.out], below_setRow hbel (by omega) _⟩
  have d2 : ((n : Int) == 1) = false := beq_eq_false_iff_ne.2 (by omega)
  have hk1 : 1 ≤ k := by
    rw [← hk, hd]
    by_cases hh : i < halfN n
    · rw [deepN_left hn2 hh]; omega
    · rw [deepN_right hn2 hh]; omega
  obtain ⟨wp, q, rfl⟩ : ∃ wp q, wy = wp ++ [q] := by
    rcases List.eq_nil_or_concat wy with h | ⟨l, b, h⟩
    · rw [h] at hk; simp at hk; omega
    · exact ⟨l, b, by rw [h, List.concat_eq_append]⟩
  rw [List.length_append, List.length_singleton] at hk hd
  obtain ⟨kk, hkk⟩ : ∃ kk, wp.length = kk := ⟨_, rfl⟩
  have hk30 := deepN_30 (n := n) (i := i) hn3
  have hrp : RowAt w a (wp.flatMap H32.cells) := by
    have := hs_take hr kk
    rw [List.take_append_of_le_length (by omega), List.take_of_length_le (by omega)] at this
    exact this
  obtain ⟨b, off, rfl, _, _⟩ := hs_at hr (k := 0) (by simp)
  have hr0 := hr
  have hW0 := hW
  have CH := fun W : World => half_any n W hn2 hn3
  have BL := fun W : World => below_any n i W hn2 hn3 hi
  have hlt := halfN_lt hn2
  have hpos := halfN_pos n
  have n0 : (0 : Int) ≤ (kk : Int) := by omega
  have n1 : (1 : Int) ≤ (k : Int) := by omega
  have n1' : (k : Int) ≤ 1000 := by omega
  have n2 : (kk : Int) ≤ (cap : Int) := by omega
  have n3 : (kk : Int) ≤ (k : Int) := by omega
  have n3' : (kk : Int) < (k : Int) := by omega
  have n4 : (k : Int) ≤ (cap : Int) := by omega
  have n5 : ((kk : Nat) : Int).toNat = kk := by omega
  have n6 : kk ≤ cap := by omega
  have n7 : kk ≤ k := by omega
  have n8 : kk < k := by omega
  by_cases hh : i < halfN n
  · have hfl := foldH_left (n := n) (i := i) hn2 hh z (wp ++ [q])
    have hdn := deepN_left hn2 hh
    rw [List.dropLast_concat, List.getLastD_concat] at hfl
    simp only [if_pos hh] at BL
    have IH := fun W => ih (halfN n) hlt i z wp (some ⟨b, off, none⟩) kk cap W hh (by omega) (by omega) hkk (by omega) hcm
    obtain ⟨h, hhh⟩ : ∃ h, halfN n = h := ⟨_, rfl⟩
    simp only [hhh] at hfl BL CH IH hh hlt hpos
    obtain ⟨FX, hFX⟩ : ∃ F, foldH h i z wp = F := ⟨_, rfl⟩
    simp only [hFX] at hfl IH
    have HR : Hid ((foldH n i z (wp ++ [q])).1 = nodeF FX.1 q.1) := Lib.hid (by rw [hfl]; rfl)
    have dd : decide ((i : Int) < (h : Int)) = true := decide_eq_true (by omega)
    have ddn : decide (i < h) = true := decide_eq_true hh
    clear hhh hFX hfl ih hdn
    go_enter Tryd.func63, Tryd.ntmps63
    go_upto_region 1 with fail
    refine wp_nameE _ (fun W1 hX => ?_)
    have y0 : W1.heap[w.heap.size]? = some (.cells (hrow z.1) 25 (0, 0)) := by rw [hX]; exact g0
    have y9 : W1.heap[w.heap.size + 1]? = some (.cells #[Value.int .u8 0, Value.int .u8 0, Value.int .u8 0, Value.int .u8 0, Value.int .u8 0, Value.int .u8 0, Value.int .u8 0, Value.int .u8 0, Value.int .u8 0, Value.int .u8 0, Value.int .u8 0, Value.int .u8 0, Value.int .u8 0, Value.int .u8 0, Value.int .u8 0, Value.int .u8 0, Value.int .u8 0, Value.int .u8 0, Value.int .u8 0, Value.int .u8 0, Value.int .u8 0, Value.int .u8 0, Value.int .u8 0, Value.int .u8 0, Value.int .u8 0, Value.int .u8 0, Value.int .u8 0, Value.int .u8 0, Value.int .u8 0, Value.int .u8 0, Value.int .u8 0, Value.int .u8 0] 25 (0, 0)) := by rw [hX]; exact g9
    have hbel : Below w.heap.size w W1 := by rw [hX]; exact hbA
    clear hX g0 g9 hbA
    have hy0 : w.heap.size < W1.heap.size := (Array.getElem?_eq_some_iff.1 y0).1
    have hy9 : w.heap.size + 1 < W1.heap.size := (Array.getElem?_eq_some_iff.1 y9).1
    have hsub : (k : Int) - 1 = ((kk : Nat) : Int) := by omega
    go_upto_region 5 with (go_at_call 71; refine (BL _).mono ?_; rintro e w2 ⟨rfl, hb2⟩)
    have y0 := cells_of y0 hb2 hy0
    have y9 := cells_of y9 hb2 hy9
    have hy0 := Nat.lt_of_lt_of_le hy0 hb2.size
    have hy9 := Nat.lt_of_lt_of_le hy9 hb2.size
    have hbel := hbel.trans (hb2.mono hbel.size)
    have hr := hr.below hbel
    have hW := hW.below hbel
    clear hb2 BL hsub
    refine wp_region_facts_tail 8 rfl [Fact.eq (.int .i64 (h : Int)), Fact.eq (.int .i64 (i : Int)), Fact.eq (.agg (hrow z.1)), Fact.eq (.slice (some ⟨b, off, none⟩) k cap), Fact.eq (.int .i64 (kk : Int)), Fact.eq (.slice (some ⟨b, off, none⟩) kk cap), Fact.eq (.agg (hrow FX.1)), Fact.cell w2.heap.size] (by kernel_rfl) (by kernel_rfl) (by kernel_rfl) (by kernel_rfl) (by kernel_rfl) (fun x => by simp only [List.take_succ_cons, List.take_zero, fillFrom, Act.put, List.setIfInBounds_toArray, List.set_cons_succ, List.set_cons_zero]; rfl) ?_ ?_
    · refine ⟨?_, ?_, ?_, ?_, ?_, ?_, ?_, ?_, trivial⟩
      · intro x w' hbw hd
        clear hd
        go_wp2_with fail
        exact frPost_mk rfl (by repeat (first | assumption | exact Below.refl _ _ | refine bch ?_ (by assumption) | refine Below.alloc ?_ (by simp) _)) rfl
      · intro x w' hbw hd
        clear hd
        go_wp2_with fail
        exact frPost_mk rfl (by repeat (first | assumption | exact Below.refl _ _ | refine bch ?_ (by assumption) | refine Below.alloc ?_ (by simp) _)) rfl
      · intro x w' hbw hd
        clear hd
        have hrg := hrow_range (cells_of y0 hbw hy0)
        go_wp2_with (first | (refine wpList_load_mid rfl 25 (.tmp 6) rfl w.heap.size 0 rfl z.cells _ hrg Tryd.underlying25 rfl (hash_info z) ?_; rw [H32.row]))
        exact frPost_mk rfl (by repeat (first | assumption | exact Below.refl _ _ | refine bch ?_ (by assumption) | refine Below.alloc ?_ (by simp) _)) rfl
      · intro x w' hbw hd
        clear hd
        go_wp2_with fail
        exact frPost_mk rfl (by repeat (first | assumption | exact Below.refl _ _ | refine bch ?_ (by assumption) | refine Below.alloc ?_ (by simp) _)) rfl
      · intro x w' hbw hd
        clear hd
        go_wp2_with fail
        exact frPost_mk rfl (by repeat (first | assumption | exact Below.refl _ _ | refine bch ?_ (by assumption) | refine Below.alloc ?_ (by simp) _)) rfl
      · intro x w' hbw hd
        have d3 : x 3 = .slice (some ⟨b, off, none⟩) k cap := hd 3 rfl
        have d4 : x 4 = .int .i64 (kk : Int) := hd 4 rfl
        clear hd
        go_wp2_with fail
        exact frPost_mk rfl (by repeat (first | assumption | exact Below.refl _ _ | refine bch ?_ (by assumption) | refine Below.alloc ?_ (by simp) _)) rfl
      · intro x w' hbw hd
        have d0 : x 0 = .int .i64 (h : Int) := hd 0 rfl
        have d1 : x 1 = .int .i64 (i : Int) := hd 1 rfl
        have d2 : x 2 = .agg (hrow z.1) := hd 2 rfl
        have d5 : x 5 = .slice (some ⟨b, off, none⟩) kk cap := hd 5 rfl
        clear hd
        have CC := IH w' (hrp.below (hbel.trans (hbw.mono hbel.size))) (hW.below hbw)
        go_wp2_with (first | (go_at_call 63; refine (CC).mono ?_; rintro e wx ⟨rfl, hbx⟩))
        exact frPost_mk rfl (by repeat (first | assumption | exact Below.refl _ _ | refine bch ?_ (by assumption) | refine Below.alloc ?_ (by simp) _)) rfl
      · intro x w' hbw hd
        clear hd
        go_wp2_with fail
        refine frPost_mk rfl (by repeat (first | assumption | exact Below.refl _ _ | refine bch ?_ (by assumption) | refine Below.alloc ?_ (by simp) _)) ?_; show (Fact.cell w2.heap.size).holds _ _; exact ⟨_, rfl, hbw.size, heap_pushF _ _ _⟩
    · intro X w' hbw hall
      have f6 : X 6 = .agg (hrow FX.1) := hall 6 (by decide)
      obtain ⟨g, hx7, hBg, hgz⟩ := (show (Fact.cell w2.heap.size).holds (X 7) w' from hall 7 (by decide))
      clear hall
      simp only [f6, hx7, List.drop_succ_cons, List.drop_zero]
      have y9 := cells_of y9 hbw hy9
      have hbel := hbel.trans (hbw.mono hbel.size)
      have hr := hr.below hbw
      have hW := hW.below hbw
      have hsF : (hrow FX.1).size = 32 := by rw [hrow_size]; exact FX.2
      have hoF := hrow_one FX.1
      go_upto_region 6 with (refine wpList_storeRowTo rfl (.tmp 12) (.tmp 31) 25 rfl (by rw [hsF]; kernel_rfl) rfl (by rfl) hgz (by rw [hsF]; rfl) hoF ?_)
      refine wp_nameE _ (fun W5 hX => ?_)
      have hT : W5.heap[g]? = some (.cells (hrow FX.1) 25 (0, 0)) := by rw [hX]; exact setRow_heap _ _ _ _ _ _ hgz
      have y9 : W5.heap[w.heap.size + 1]? = some (.cells #[Value.int .u8 0, Value.int .u8 0, Value.int .u8 0, Value.int .u8 0, Value.int .u8 0, Value.int .u8 0, Value.int .u8 0, Value.int .u8 0, Value.int .u8 0, Value.int .u8 0, Value.int .u8 0, Value.int .u8 0, Value.int .u8 0, Value.int .u8 0, Value.int .u8 0, Value.int .u8 0, Value.int .u8 0, Value.int .u8 0, Value.int .u8 0, Value.int .u8 0, Value.int .u8 0, Value.int .u8 0, Value.int .u8 0, Value.int .u8 0, Value.int .u8 0, Value.int .u8 0, Value.int .u8 0, Value.int .u8 0, Value.int .u8 0, Value.int .u8 0, Value.int .u8 0, Value.int .u8 0] 25 (0, 0)) := by rw [hX, setRow_other _ _ _ _ (by omega)]; exact y9
      have hbelX : Below w2.heap.size w' W5 := by rw [hX]; exact below_setRow (Below.refl _ _) (by omega) _
      have hbel : Below w.heap.size w W5 := hbel.trans (hbelX.mono (by omega))
      have hr : RowAt W5 (some ⟨b, off, none⟩) ((wp ++ [q]).flatMap H32.cells) := hr0.below hbel
      have hW : SW W5 := hW0.below hbel
      have hTl : g < W5.heap.size := (Array.getElem?_eq_some_iff.1 hT).1
      have hy9 : w.heap.size + 1 < W5.heap.size := (Array.getElem?_eq_some_iff.1 y9).1
      clear hX hbelX
      go_upto_region 7 with (go_at_call 70; refine (CH _).mono ?_; rintro e w6 ⟨rfl, hb6⟩)
      have hT := cells_of hT hb6 hTl
      have y9 := cells_of y9 hb6 hy9
      have hTl := Nat.lt_of_lt_of_le hTl hb6.size
      have hy9 := Nat.lt_of_lt_of_le hy9 hb6.size
      have hbel := hbel.trans (hb6.mono hbel.size)
      have hr := hr.below hb6
      have hW := hW.below hb6
      clear hb6
      obtain ⟨b2, o2, he2, hb2, hrgq⟩ := hs_at hr (k := kk) (by simp; omega)
      simp only [Option.some.injEq, Addr.mk.injEq, and_true] at he2
      obtain ⟨rfl, rfl⟩ := he2
      rw [show (wp ++ [q])[kk]'(by simp; omega) = q by simp [← hkk]] at hrgq
      refine wp_region_facts_tail 6 rfl [Fact.eq (.agg (hrow FX.1)), Fact.eq (.slice (some ⟨b, off, none⟩) k cap), Fact.eq (.int .i64 (kk : Int)), Fact.eq (.pointer (some ⟨b, off + kk * 32, none⟩)), Fact.eq (.agg (hrow q.1)), Fact.eq (.agg (hrow (nodeF FX.1 q.1)))] (by kernel_rfl) (by kernel_rfl) (by kernel_rfl) (by kernel_rfl) (by kernel_rfl) (fun x => by simp only [List.take_succ_cons, List.take_zero, fillFrom, Act.put, List.setIfInBounds_toArray, List.set_cons_succ, List.set_cons_zero]; rfl) ?_ ?_
      · refine ⟨?_, ?_, ?_, ?_, ?_, ?_, trivial⟩
        · intro x w' hbw hd
          clear hd
          have hrg := hrow_range (cells_of hT hbw hTl)
          go_wp2_with (first | (refine wpList_load_mid rfl 25 (.tmp 12) rfl g 0 rfl FX.cells _ hrg Tryd.underlying25 rfl (hash_info FX) ?_; rw [H32.row]))
          exact frPost_mk rfl (by repeat (first | assumption | exact Below.refl _ _ | refine bch ?_ (by assumption) | refine Below.alloc ?_ (by simp) _)) rfl
        · intro x w' hbw hd
          clear hd
          go_wp2_with fail
          exact frPost_mk rfl (by repeat (first | assumption | exact Below.refl _ _ | refine bch ?_ (by assumption) | refine Below.alloc ?_ (by simp) _)) rfl
        · intro x w' hbw hd
          clear hd
          go_wp2_with fail
          exact frPost_mk rfl (by repeat (first | assumption | exact Below.refl _ _ | refine bch ?_ (by assumption) | refine Below.alloc ?_ (by simp) _)) rfl
        · intro x w' hbw hd
          have d1 : x 1 = .slice (some ⟨b, off, none⟩) k cap := hd 1 rfl
          have d2 : x 2 = .int .i64 (kk : Int) := hd 2 rfl
          clear hd
          go_wp2_with fail
          exact frPost_mk rfl (by repeat (first | assumption | exact Below.refl _ _ | refine bch ?_ (by assumption) | refine Below.alloc ?_ (by simp) _)) rfl
        · intro x w' hbw hd
          have d3 : x 3 = .pointer (some ⟨b, off + kk * 32, none⟩) := hd 3 rfl
          clear hd
          have hrg : w'.rangeAt b (off + kk * 32) q.cells := fun j v hv => by rw [hbw.cell (p := ⟨b, off + kk * 32 + j, none⟩) hb2]; exact hrgq j v hv
          go_wp2_with (first | (refine wpList_load_mid rfl 25 (.tmp 39) rfl b (off + kk * 32) d3 q.cells _ hrg Tryd.underlying25 rfl (hash_info q) ?_; rw [H32.row]))
          exact frPost_mk rfl (by repeat (first | assumption | exact Below.refl _ _ | refine bch ?_ (by assumption) | refine Below.alloc ?_ (by simp) _)) rfl
        · intro x w' hbw hd
          have d0 : x 0 = .agg (hrow FX.1) := hd 0 rfl
          have d4 : x 4 = .agg (hrow q.1) := hd 4 rfl
          clear hd
          have CC := node_any FX.1 q.1 w' (hW.below hbw) FX.2 q.2
          go_wp2_with (first | (go_at_call 14; refine (CC).mono ?_; rintro e wx ⟨rfl, hbx⟩))
          exact frPost_mk rfl (by repeat (first | assumption | exact Below.refl _ _ | refine bch ?_ (by assumption) | refine Below.alloc ?_ (by simp) _)) rfl
      · intro X2 w7 hbw hall
        have hf : X2 5 = .agg (hrow (nodeF FX.1 q.1)) := hall 5 (by decide)
        clear hall
        simp only [hf, List.drop_succ_cons, List.drop_zero]
        have hl := nodeF_len FX.1 q.1
        have hsz : (hrow (nodeF FX.1 q.1)).size = 32 := by rw [hrow_size]; exact hl
        have hone := hrow_one (nodeF FX.1 q.1)
        have y9 := cells_of y9 hbw hy9
        have hbel := hbel.trans (hbw.mono hbel.size)
        go_wp2_with (refine wpList_storeRowTo rfl (.tmp 8) (.tmp 41) 25 rfl (by rw [hsz]; kernel_rfl) rfl rfl y9 (by rw [hsz]; rfl) hone ?_)
        refine bodyPost_ret (v := .agg (hrow (nodeF FX.1 q.1))) ?_ rfl ?_
        · simp [results, Tryd.results63, asAddr]
          exact run_loadVar_row _ _ 25 25 _ (0, 0) _ (setRow_heap _ _ _ _ _ _ y9) Tryd.underlying25 rfl (by rw [hsz]; kernel_rfl)
        exact ⟨by rw [HR.out], below_setRow hbel (by omega) _⟩
  · have hfl := foldH_right (n := n) (i := i) hn2 hh z (wp ++ [q])
    have hdn := deepN_right hn2 hh
    rw [List.dropLast_concat, List.getLastD_concat] at hfl
    simp only [if_neg hh] at BL
    have IH := fun W => ih (n - halfN n) (by omega) (i - halfN n) z wp (some ⟨b, off, none⟩) kk cap W (by omega) (by omega) (by omega) hkk (by omega) hcm
    obtain ⟨h, hhh⟩ : ∃ h, halfN n = h := ⟨_, rfl⟩
    simp only [hhh] at hfl BL CH IH hh hlt hpos
    obtain ⟨s, hs⟩ : ∃ s, n - h = s := ⟨_, rfl⟩
    obtain ⟨j, hj⟩ : ∃ j, i - h = j := ⟨_, rfl⟩
    simp only [hs, hj] at hfl BL IH
    obtain ⟨FX, hFX⟩ : ∃ F, foldH s j z wp = F := ⟨_, rfl⟩
    simp only [hFX] at hfl IH
    have HR : Hid ((foldH n i z (wp ++ [q])).1 = nodeF q.1 FX.1) := Lib.hid (by rw [hfl]; rfl)
    have dd : decide ((i : Int) < (h : Int)) = false := decide_eq_false (by omega)
    have ddn : decide (i < h) = false := decide_eq_false hh
    clear hhh hFX hfl ih hdn
    go_enter Tryd.func63, Tryd.ntmps63
    go_upto_region 1 with fail
    refine wp_nameE _ (fun W1 hX => ?_)
    have y0 : W1.heap[w.heap.size]? = some (.cells (hrow z.1) 25 (0, 0)) := by rw [hX]; exact g0
    have y9 : W1.heap[w.heap.size + 1]? = some (.cells #[Value.int .u8 0, Value.int .u8 0, Value.int .u8 0, Value.int .u8 0, Value.int .u8 0, Value.int .u8 0, Value.int .u8 0, Value.int .u8 0, Value.int .u8 0, Value.int .u8 0, Value.int .u8 0, Value.int .u8 0, Value.int .u8 0, Value.int .u8 0, Value.int .u8 0, Value.int .u8 0, Value.int .u8 0, Value.int .u8 0, Value.int .u8 0, Value.int .u8 0, Value.int .u8 0, Value.int .u8 0, Value.int .u8 0, Value.int .u8 0, Value.int .u8 0, Value.int .u8 0, Value.int .u8 0, Value.int .u8 0, Value.int .u8 0, Value.int .u8 0, Value.int .u8 0, Value.int .u8 0] 25 (0, 0)) := by rw [hX]; exact g9
    have hbel : Below w.heap.size w W1 := by rw [hX]; exact hbA
    clear hX g0 g9 hbA
    have hy0 : w.heap.size < W1.heap.size := (Array.getElem?_eq_some_iff.1 y0).1
    have hy9 : w.heap.size + 1 < W1.heap.size := (Array.getElem?_eq_some_iff.1 y9).1
    have hsub : (k : Int) - 1 = ((kk : Nat) : Int) := by omega
    go_upto_region 5 with (go_at_call 71; refine (BL _).mono ?_; rintro e w2 ⟨rfl, hb2⟩)
    have y0 := cells_of y0 hb2 hy0
    have y9 := cells_of y9 hb2 hy9
    have hy0 := Nat.lt_of_lt_of_le hy0 hb2.size
    have hy9 := Nat.lt_of_lt_of_le hy9 hb2.size
    have hbel := hbel.trans (hb2.mono hbel.size)
    have hr := hr.below hbel
    have hW := hW.below hbel
    clear hb2 BL hsub
    refine wp_region_facts_tail 8 rfl [Fact.eq (.int .i64 (s : Int)), Fact.eq (.int .i64 (j : Int)), Fact.eq (.agg (hrow z.1)), Fact.eq (.slice (some ⟨b, off, none⟩) k cap), Fact.eq (.int .i64 (kk : Int)), Fact.eq (.slice (some ⟨b, off, none⟩) kk cap), Fact.eq (.agg (hrow FX.1)), Fact.cell w2.heap.size] (by kernel_rfl) (by kernel_rfl) (by kernel_rfl) (by kernel_rfl) (by kernel_rfl) (fun x => by simp only [List.take_succ_cons, List.take_zero, fillFrom, Act.put, List.setIfInBounds_toArray, List.set_cons_succ, List.set_cons_zero]; rfl) ?_ ?_
    · refine ⟨?_, ?_, ?_, ?_, ?_, ?_, ?_, ?_, trivial⟩
      · intro x w' hbw hd
        clear hd
        go_wp2_with fail
        exact frPost_mk rfl (by repeat (first | assumption | exact Below.refl _ _ | refine bch ?_ (by assumption) | refine Below.alloc ?_ (by simp) _)) rfl
      · intro x w' hbw hd
        clear hd
        go_wp2_with fail
        exact frPost_mk rfl (by repeat (first | assumption | exact Below.refl _ _ | refine bch ?_ (by assumption) | refine Below.alloc ?_ (by simp) _)) rfl
      · intro x w' hbw hd
        clear hd
        have hrg := hrow_range (cells_of y0 hbw hy0)
        go_wp2_with (first | (refine wpList_load_mid rfl 25 (.tmp 6) rfl w.heap.size 0 rfl z.cells _ hrg Tryd.underlying25 rfl (hash_info z) ?_; rw [H32.row]))
        exact frPost_mk rfl (by repeat (first | assumption | exact Below.refl _ _ | refine bch ?_ (by assumption) | refine Below.alloc ?_ (by simp) _)) rfl
      · intro x w' hbw hd
        clear hd
        go_wp2_with fail
        exact frPost_mk rfl (by repeat (first | assumption | exact Below.refl _ _ | refine bch ?_ (by assumption) | refine Below.alloc ?_ (by simp) _)) rfl
      · intro x w' hbw hd
        clear hd
        go_wp2_with fail
        exact frPost_mk rfl (by repeat (first | assumption | exact Below.refl _ _ | refine bch ?_ (by assumption) | refine Below.alloc ?_ (by simp) _)) rfl
      · intro x w' hbw hd
        have d3 : x 3 = .slice (some ⟨b, off, none⟩) k cap := hd 3 rfl
        have d4 : x 4 = .int .i64 (kk : Int) := hd 4 rfl
        clear hd
        go_wp2_with fail
        exact frPost_mk rfl (by repeat (first | assumption | exact Below.refl _ _ | refine bch ?_ (by assumption) | refine Below.alloc ?_ (by simp) _)) rfl
      · intro x w' hbw hd
        have d0 : x 0 = .int .i64 (s : Int) := hd 0 rfl
        have d1 : x 1 = .int .i64 (j : Int) := hd 1 rfl
        have d2 : x 2 = .agg (hrow z.1) := hd 2 rfl
        have d5 : x 5 = .slice (some ⟨b, off, none⟩) kk cap := hd 5 rfl
        clear hd
        have CC := IH w' (hrp.below (hbel.trans (hbw.mono hbel.size))) (hW.below hbw)
        go_wp2_with (first | (go_at_call 63; refine (CC).mono ?_; rintro e wx ⟨rfl, hbx⟩))
        exact frPost_mk rfl (by repeat (first | assumption | exact Below.refl _ _ | refine bch ?_ (by assumption) | refine Below.alloc ?_ (by simp) _)) rfl
      · intro x w' hbw hd
        clear hd
        go_wp2_with fail
        refine frPost_mk rfl (by repeat (first | assumption | exact Below.refl _ _ | refine bch ?_ (by assumption) | refine Below.alloc ?_ (by simp) _)) ?_; show (Fact.cell w2.heap.size).holds _ _; exact ⟨_, rfl, hbw.size, heap_pushF _ _ _⟩
    · intro X w' hbw hall
      have f6 : X 6 = .agg (hrow FX.1) := hall 6 (by decide)
      obtain ⟨g, hx7, hBg, hgz⟩ := (show (Fact.cell w2.heap.size).holds (X 7) w' from hall 7 (by decide))
      clear hall
      simp only [f6, hx7, List.drop_succ_cons, List.drop_zero]
      have y9 := cells_of y9 hbw hy9
      have hbel := hbel.trans (hbw.mono hbel.size)
      have hr := hr.below hbw
      have hW := hW.below hbw
      have hsF : (hrow FX.1).size = 32 := by rw [hrow_size]; exact FX.2
      have hoF := hrow_one FX.1
      go_upto_region 6 with (refine wpList_storeRowTo rfl (.tmp 12) (.tmp 31) 25 rfl (by rw [hsF]; kernel_rfl) rfl (by rfl) hgz (by rw [hsF]; rfl) hoF ?_)
      refine wp_nameE _ (fun W5 hX => ?_)
      have hT : W5.heap[g]? = some (.cells (hrow FX.1) 25 (0, 0)) := by rw [hX]; exact setRow_heap _ _ _ _ _ _ hgz
      have y9 : W5.heap[w.heap.size + 1]? = some (.cells #[Value.int .u8 0, Value.int .u8 0, Value.int .u8 0, Value.int .u8 0, Value.int .u8 0, Value.int .u8 0, Value.int .u8 0, Value.int .u8 0, Value.int .u8 0, Value.int .u8 0, Value.int .u8 0, Value.int .u8 0, Value.int .u8 0, Value.int .u8 0, Value.int .u8 0, Value.int .u8 0, Value.int .u8 0, Value.int .u8 0, Value.int .u8 0, Value.int .u8 0, Value.int .u8 0, Value.int .u8 0, Value.int .u8 0, Value.int .u8 0, Value.int .u8 0, Value.int .u8 0, Value.int .u8 0, Value.int .u8 0, Value.int .u8 0, Value.int .u8 0, Value.int .u8 0, Value.int .u8 0] 25 (0, 0)) := by rw [hX, setRow_other _ _ _ _ (by omega)]; exact y9
      have hbelX : Below w2.heap.size w' W5 := by rw [hX]; exact below_setRow (Below.refl _ _) (by omega) _
      have hbel : Below w.heap.size w W5 := hbel.trans (hbelX.mono (by omega))
      have hr : RowAt W5 (some ⟨b, off, none⟩) ((wp ++ [q]).flatMap H32.cells) := hr0.below hbel
      have hW : SW W5 := hW0.below hbel
      have hTl : g < W5.heap.size := (Array.getElem?_eq_some_iff.1 hT).1
      have hy9 : w.heap.size + 1 < W5.heap.size := (Array.getElem?_eq_some_iff.1 y9).1
      clear hX hbelX
      go_upto_region 8 with (go_at_call 70; refine (CH _).mono ?_; rintro e w6 ⟨rfl, hb6⟩)
      have hT := cells_of hT hb6 hTl
      have y9 := cells_of y9 hb6 hy9
      have hTl := Nat.lt_of_lt_of_le hTl hb6.size
      have hy9 := Nat.lt_of_lt_of_le hy9 hb6.size
      have hbel := hbel.trans (hb6.mono hbel.size)
      have hr := hr.below hb6
      have hW := hW.below hb6
      clear hb6
      obtain ⟨b2, o2, he2, hb2, hrgq⟩ := hs_at hr (k := kk) (by simp; omega)
      simp only [Option.some.injEq, Addr.mk.injEq, and_true] at he2
      obtain ⟨rfl, rfl⟩ := he2
      rw [show (wp ++ [q])[kk]'(by simp; omega) = q by simp [← hkk]] at hrgq
      refine wp_region_facts_tail 6 rfl [Fact.eq (.slice (some ⟨b, off, none⟩) k cap), Fact.eq (.int .i64 (kk : Int)), Fact.eq (.pointer (some ⟨b, off + kk * 32, none⟩)), Fact.eq (.agg (hrow q.1)), Fact.eq (.agg (hrow FX.1)), Fact.eq (.agg (hrow (nodeF q.1 FX.1)))] (by kernel_rfl) (by kernel_rfl) (by kernel_rfl) (by kernel_rfl) (by kernel_rfl) (fun x => by simp only [List.take_succ_cons, List.take_zero, fillFrom, Act.put, List.setIfInBounds_toArray, List.set_cons_succ, List.set_cons_zero]; rfl) ?_ ?_
      · refine ⟨?_, ?_, ?_, ?_, ?_, ?_, trivial⟩
        · intro x w' hbw hd
          clear hd
          go_wp2_with fail
          exact frPost_mk rfl (by repeat (first | assumption | exact Below.refl _ _ | refine bch ?_ (by assumption) | refine Below.alloc ?_ (by simp) _)) rfl
        · intro x w' hbw hd
          clear hd
          go_wp2_with fail
          exact frPost_mk rfl (by repeat (first | assumption | exact Below.refl _ _ | refine bch ?_ (by assumption) | refine Below.alloc ?_ (by simp) _)) rfl
        · intro x w' hbw hd
          have d0 : x 0 = .slice (some ⟨b, off, none⟩) k cap := hd 0 rfl
          have d1 : x 1 = .int .i64 (kk : Int) := hd 1 rfl
          clear hd
          go_wp2_with fail
          exact frPost_mk rfl (by repeat (first | assumption | exact Below.refl _ _ | refine bch ?_ (by assumption) | refine Below.alloc ?_ (by simp) _)) rfl
        · intro x w' hbw hd
          have d2 : x 2 = .pointer (some ⟨b, off + kk * 32, none⟩) := hd 2 rfl
          clear hd
          have hrg : w'.rangeAt b (off + kk * 32) q.cells := fun j v hv => by rw [hbw.cell (p := ⟨b, off + kk * 32 + j, none⟩) hb2]; exact hrgq j v hv
          go_wp2_with (first | (refine wpList_load_mid rfl 25 (.tmp 44) rfl b (off + kk * 32) d2 q.cells _ hrg Tryd.underlying25 rfl (hash_info q) ?_; rw [H32.row]))
          exact frPost_mk rfl (by repeat (first | assumption | exact Below.refl _ _ | refine bch ?_ (by assumption) | refine Below.alloc ?_ (by simp) _)) rfl
        · intro x w' hbw hd
          clear hd
          have hrg := hrow_range (cells_of hT hbw hTl)
          go_wp2_with (first | (refine wpList_load_mid rfl 25 (.tmp 12) rfl g 0 rfl FX.cells _ hrg Tryd.underlying25 rfl (hash_info FX) ?_; rw [H32.row]))
          exact frPost_mk rfl (by repeat (first | assumption | exact Below.refl _ _ | refine bch ?_ (by assumption) | refine Below.alloc ?_ (by simp) _)) rfl
        · intro x w' hbw hd
          have d3 : x 3 = .agg (hrow q.1) := hd 3 rfl
          have d4 : x 4 = .agg (hrow FX.1) := hd 4 rfl
          clear hd
          have CC := node_any q.1 FX.1 w' (hW.below hbw) q.2 FX.2
          go_wp2_with (first | (go_at_call 14; refine (CC).mono ?_; rintro e wx ⟨rfl, hbx⟩))
          exact frPost_mk rfl (by repeat (first | assumption | exact Below.refl _ _ | refine bch ?_ (by assumption) | refine Below.alloc ?_ (by simp) _)) rfl
      · intro X2 w7 hbw hall
        have hf : X2 5 = .agg (hrow (nodeF q.1 FX.1)) := hall 5 (by decide)
        clear hall
        simp only [hf, List.drop_succ_cons, List.drop_zero]
        have hl := nodeF_len q.1 FX.1
        have hsz : (hrow (nodeF q.1 FX.1)).size = 32 := by rw [hrow_size]; exact hl
        have hone := hrow_one (nodeF q.1 FX.1)
        have y9 := cells_of y9 hbw hy9
        have hbel := hbel.trans (hbw.mono hbel.size)
        go_wp2_with (refine wpList_storeRowTo rfl (.tmp 8) (.tmp 47) 25 rfl (by rw [hsz]; kernel_rfl) rfl rfl y9 (by rw [hsz]; rfl) hone ?_)
        refine bodyPost_ret (v := .agg (hrow (nodeF q.1 FX.1))) ?_ rfl ?_
        · simp [results, Tryd.results63, asAddr]
          exact run_loadVar_row _ _ 25 25 _ (0, 0) _ (setRow_heap _ _ _ _ _ _ y9) Tryd.underlying25 rfl (by rw [hsz]; kernel_rfl)
        exact ⟨by rw [HR.out], below_setRow hbel (by omega) _⟩
end Go.Proofs.YtfikbaoiialfeaaDoor
namespace Go.Proofs.YtfikbaoiialfeaaDoor
open Go.RowKit
attribute [local go_sem] strV
set_option linter.unusedVariables false

def foldR (n i : Int) (z : H32) (wy : List H32) : H32 × Bool := bif insB n i && decide ((wy.length : Int) = deepI n i) then (foldH n.toNat i.toNat z wy, true) else (zeroH, false)
theorem insB_iff {n i : Int} : insB n i = true ↔ n ≤ 1073741824 ∧ 0 ≤ i ∧ i < n := by
  unfold insB; simp only [Bool.and_eq_true, decide_eq_true_eq, and_assoc]
set_option maxRecDepth 100000 in
set_option maxHeartbeats 2000000 in
theorem Fold_any (n i : Int) (z : H32) (wy : List H32) (a : Option Addr) (k cap : Nat) (w : World) (hk : wy.length = k) (hcap : k ≤ cap) (hcm : cap ≤ maxLen) (hr : RowAt w a (wy.flatMap H32.cells)) (hW : SW w) :
    Calls Tryd.prog 10 #[.int .i64 n, .int .i64 i, .agg (hrow z.1), .slice a k cap] w fun e w' => e = .returned (.tuple #[.agg (hrow (foldR n i z wy).1.1), .bool (foldR n i z wy).2]) ∧ Below w.heap.size w w' := by
  have hq : (hrow z.1).size = 32 := by rw [hrow_size]; exact z.2
  have hqone := hrow_one z.1
  have g0 := al2_0 w (.cells (hrow z.1) 25) (.cells #[Value.int .u8 0, Value.int .u8 0, Value.int .u8 0, Value.int .u8 0, Value.int .u8 0, Value.int .u8 0, Value.int .u8 0, Value.int .u8 0, Value.int .u8 0, Value.int .u8 0, Value.int .u8 0, Value.int .u8 0, Value.int .u8 0, Value.int .u8 0, Value.int .u8 0, Value.int .u8 0, Value.int .u8 0, Value.int .u8 0, Value.int .u8 0, Value.int .u8 0, Value.int .u8 0, Value.int .u8 0, Value.int .u8 0, Value.int .u8 0, Value.int .u8 0, Value.int .u8 0, Value.int .u8 0, Value.int .u8 0, Value.int .u8 0, Value.int .u8 0, Value.int .u8 0, Value.int .u8 0] 25)
  have g9 := al2_1 w (.cells (hrow z.1) 25) (.cells #[Value.int .u8 0, Value.int .u8 0, Value.int .u8 0, Value.int .u8 0, Value.int .u8 0, Value.int .u8 0, Value.int .u8 0, Value.int .u8 0, Value.int .u8 0, Value.int .u8 0, Value.int .u8 0, Value.int .u8 0, Value.int .u8 0, Value.int .u8 0, Value.int .u8 0, Value.int .u8 0, Value.int .u8 0, Value.int .u8 0, Value.int .u8 0, Value.int .u8 0, Value.int .u8 0, Value.int .u8 0, Value.int .u8 0, Value.int .u8 0, Value.int .u8 0, Value.int .u8 0, Value.int .u8 0, Value.int .u8 0, Value.int .u8 0, Value.int .u8 0, Value.int .u8 0, Value.int .u8 0] 25)
  have hbA := al2_below w (.cells (hrow z.1) 25) (.cells #[Value.int .u8 0, Value.int .u8 0, Value.int .u8 0, Value.int .u8 0, Value.int .u8 0, Value.int .u8 0, Value.int .u8 0, Value.int .u8 0, Value.int .u8 0, Value.int .u8 0, Value.int .u8 0, Value.int .u8 0, Value.int .u8 0, Value.int .u8 0, Value.int .u8 0, Value.int .u8 0, Value.int .u8 0, Value.int .u8 0, Value.int .u8 0, Value.int .u8 0, Value.int .u8 0, Value.int .u8 0, Value.int .u8 0, Value.int .u8 0, Value.int .u8 0, Value.int .u8 0, Value.int .u8 0, Value.int .u8 0, Value.int .u8 0, Value.int .u8 0, Value.int .u8 0, Value.int .u8 0] 25)
  have CI := fun W => inside_any n i W
  have CD := fun W => deep_any n i W
  obtain ⟨ib, hib⟩ : ∃ b, insB n i = b := ⟨_, rfl⟩
  obtain ⟨D, hD⟩ : ∃ d, deepI n i = d := ⟨_, rfl⟩
  simp only [hib] at CI
  simp only [hD] at CD
  have hF : foldR n i z wy = bif ib && decide ((k : Int) = D) then (foldH n.toNat i.toNat z wy, true) else (zeroH, false) := by unfold foldR; rw [hib, hD, hk]
  rw [hF]
  clear hF
  have hz : (hrow z32).size = 32 := by rfl
  have hzone := hrow_one z32
  cases ib
  · clear hib hD
    go_enter Tryd.func10, Tryd.ntmps10
    go_upto_region 1 with fail
    refine wp_nameE _ (fun W1 hX => ?_)
    have y0 : W1.heap[w.heap.size]? = some (.cells (hrow z.1) 25 (0, 0)) := by rw [hX]; exact g0
    have y9 : W1.heap[w.heap.size + 1]? = some (.cells #[Value.int .u8 0, Value.int .u8 0, Value.int .u8 0, Value.int .u8 0, Value.int .u8 0, Value.int .u8 0, Value.int .u8 0, Value.int .u8 0, Value.int .u8 0, Value.int .u8 0, Value.int .u8 0, Value.int .u8 0, Value.int .u8 0, Value.int .u8 0, Value.int .u8 0, Value.int .u8 0, Value.int .u8 0, Value.int .u8 0, Value.int .u8 0, Value.int .u8 0, Value.int .u8 0, Value.int .u8 0, Value.int .u8 0, Value.int .u8 0, Value.int .u8 0, Value.int .u8 0, Value.int .u8 0, Value.int .u8 0, Value.int .u8 0, Value.int .u8 0, Value.int .u8 0, Value.int .u8 0] 25 (0, 0)) := by rw [hX]; exact g9
    have hbel : Below w.heap.size w W1 := by rw [hX]; exact hbA
    clear hX g0 g9 hbA
    have hy0 : w.heap.size < W1.heap.size := (Array.getElem?_eq_some_iff.1 y0).1
    have hy9 : w.heap.size + 1 < W1.heap.size := (Array.getElem?_eq_some_iff.1 y9).1
    go_upto_region 2 with (go_at_call 62; refine (CI _).mono ?_; rintro e w2 ⟨rfl, hb⟩; have y0 := cells_of y0 hb hy0; have y9 := cells_of y9 hb hy9; have hy0 := Nat.lt_of_lt_of_le hy0 hb.size; have hy9 := Nat.lt_of_lt_of_le hy9 hb.size; have hbel := hbel.trans (hb.mono hbel.size); clear hb)
    go_wp2_with (refine wpList_storeRowTo (Z := hrow z32) rfl (.tmp 8) (.tmp 22) 25 rfl (by rw [hz]; kernel_rfl) rfl (by rfl) y9 (by rw [hz]; rfl) hzone ?_)
    have hrd := run_loadVar_row (P := Tryd.prog) _ _ 25 25 _ (0, 0) _ (setRow_heap _ _ _ _ _ _ y9) Tryd.underlying25 rfl (by rw [hz]; kernel_rfl)
    refine bodyPost_ret (v := .tuple #[.agg (hrow z32), .bool false]) ?_ rfl ?_
    · simp [results, Tryd.results10, asAddr, hrd]
      try rfl
    exact ⟨rfl, below_setRow hbel (by omega) _⟩
  by_cases hkD : (k : Int) = D
  · have f3 : ((k : Int) != D) = false := by rw [hkD]; simp
    obtain ⟨e1, e2, e3⟩ := insB_iff.1 hib
    obtain ⟨i, rfl⟩ : ∃ m : Nat, i = m := ⟨i.toNat, by omega⟩
    obtain ⟨n, rfl⟩ : ∃ m : Nat, n = m := ⟨n.toNat, by omega⟩
    have hdk : wy.length = deepN n i := by
      unfold deepI at hD
      rw [hib] at hD
      simp only [cond_true, Int.toNat_natCast] at hD
      omega
    have CF := fun W h1 h2 => fold_any n i z wy a k cap W (by omega) (by omega) hdk hk hcap hcm h1 h2
    rw [decide_eq_true hkD]
    simp only [Bool.and_true, cond_true, Int.toNat_natCast]
    obtain ⟨R, hR⟩ : ∃ R, foldH n i z wy = R := ⟨_, rfl⟩
    simp only [hR] at CF ⊢
    have hsR : (hrow R.1).size = 32 := by rw [hrow_size]; exact R.2
    have hoR := hrow_one R.1
    clear hR hdk hkD hib hD e1 e2 e3
    go_enter Tryd.func10, Tryd.ntmps10
    go_upto_region 1 with fail
    refine wp_nameE _ (fun W1 hX => ?_)
    have y0 : W1.heap[w.heap.size]? = some (.cells (hrow z.1) 25 (0, 0)) := by rw [hX]; exact g0
    have y9 : W1.heap[w.heap.size + 1]? = some (.cells #[Value.int .u8 0, Value.int .u8 0, Value.int .u8 0, Value.int .u8 0, Value.int .u8 0, Value.int .u8 0, Value.int .u8 0, Value.int .u8 0, Value.int .u8 0, Value.int .u8 0, Value.int .u8 0, Value.int .u8 0, Value.int .u8 0, Value.int .u8 0, Value.int .u8 0, Value.int .u8 0, Value.int .u8 0, Value.int .u8 0, Value.int .u8 0, Value.int .u8 0, Value.int .u8 0, Value.int .u8 0, Value.int .u8 0, Value.int .u8 0, Value.int .u8 0, Value.int .u8 0, Value.int .u8 0, Value.int .u8 0, Value.int .u8 0, Value.int .u8 0, Value.int .u8 0, Value.int .u8 0] 25 (0, 0)) := by rw [hX]; exact g9
    have hbel : Below w.heap.size w W1 := by rw [hX]; exact hbA
    clear hX g0 g9 hbA
    have hy0 : w.heap.size < W1.heap.size := (Array.getElem?_eq_some_iff.1 y0).1
    have hy9 : w.heap.size + 1 < W1.heap.size := (Array.getElem?_eq_some_iff.1 y9).1
    go_upto_region 3 with (first | (go_at_call 62; refine (CI _).mono ?_; rintro e w2 ⟨rfl, hb⟩; have y0 := cells_of y0 hb hy0; have y9 := cells_of y9 hb hy9; have hy0 := Nat.lt_of_lt_of_le hy0 hb.size; have hy9 := Nat.lt_of_lt_of_le hy9 hb.size; have hbel := hbel.trans (hb.mono hbel.size); clear hb) | (go_at_call 25; refine (CD _).mono ?_; rintro e w2 ⟨rfl, hb⟩; have y0 := cells_of y0 hb hy0; have y9 := cells_of y9 hb hy9; have hy0 := Nat.lt_of_lt_of_le hy0 hb.size; have hy9 := Nat.lt_of_lt_of_le hy9 hb.size; have hbel := hbel.trans (hb.mono hbel.size); clear hb))
    have hrg := hrow_range y0
    have hr := hr.below hbel
    have hW := hW.below hbel
    go_wp2_with (first | (refine wpList_load_mid rfl 25 (.tmp 6) rfl w.heap.size 0 rfl z.cells _ hrg Tryd.underlying25 rfl (hash_info z) ?_; rw [H32.row]) | (go_at_call 63; refine (CF _ hr hW).mono ?_; rintro e w3 ⟨rfl, hb⟩; have y9 := cells_of y9 hb hy9; have hbel := hbel.trans (hb.mono hbel.size)) | (refine wpList_storeRowTo rfl (.tmp 8) (.tmp 27) 25 rfl (by rw [hsR]; kernel_rfl) rfl (by rfl) y9 (by rw [hsR]; rfl) hoR ?_))
    have hrd := run_loadVar_row (P := Tryd.prog) _ _ 25 25 _ (0, 0) _ (setRow_heap _ _ _ _ _ _ y9) Tryd.underlying25 rfl (by rw [hsR]; kernel_rfl)
    refine bodyPost_ret (v := .tuple #[.agg (hrow R.1), .bool true]) ?_ rfl ?_
    · simp [results, Tryd.results10, asAddr, hrd]
      try rfl
    exact ⟨rfl, below_setRow hbel (by omega) _⟩
  · have f3 : ((k : Int) != D) = true := by rw [bne_iff_ne]; exact hkD
    rw [decide_eq_false hkD]
    simp only [Bool.and_false, cond_false]
    clear hib hD hkD
    go_enter Tryd.func10, Tryd.ntmps10
    go_upto_region 1 with fail
    refine wp_nameE _ (fun W1 hX => ?_)
    have y0 : W1.heap[w.heap.size]? = some (.cells (hrow z.1) 25 (0, 0)) := by rw [hX]; exact g0
    have y9 : W1.heap[w.heap.size + 1]? = some (.cells #[Value.int .u8 0, Value.int .u8 0, Value.int .u8 0, Value.int .u8 0, Value.int .u8 0, Value.int .u8 0, Value.int .u8 0, Value.int .u8 0, Value.int .u8 0, Value.int .u8 0, Value.int .u8 0, Value.int .u8 0, Value.int .u8 0, Value.int .u8 0, Value.int .u8 0, Value.int .u8 0, Value.int .u8 0, Value.int .u8 0, Value.int .u8 0, Value.int .u8 0, Value.int .u8 0, Value.int .u8 0, Value.int .u8 0, Value.int .u8 0, Value.int .u8 0, Value.int .u8 0, Value.int .u8 0, Value.int .u8 0, Value.int .u8 0, Value.int .u8 0, Value.int .u8 0, Value.int .u8 0] 25 (0, 0)) := by rw [hX]; exact g9
    have hbel : Below w.heap.size w W1 := by rw [hX]; exact hbA
    clear hX g0 g9 hbA
    have hy0 : w.heap.size < W1.heap.size := (Array.getElem?_eq_some_iff.1 y0).1
    have hy9 : w.heap.size + 1 < W1.heap.size := (Array.getElem?_eq_some_iff.1 y9).1
    go_upto_region 2 with (first | (go_at_call 62; refine (CI _).mono ?_; rintro e w2 ⟨rfl, hb⟩; have y0 := cells_of y0 hb hy0; have y9 := cells_of y9 hb hy9; have hy0 := Nat.lt_of_lt_of_le hy0 hb.size; have hy9 := Nat.lt_of_lt_of_le hy9 hb.size; have hbel := hbel.trans (hb.mono hbel.size); clear hb) | (go_at_call 25; refine (CD _).mono ?_; rintro e w2 ⟨rfl, hb⟩; have y0 := cells_of y0 hb hy0; have y9 := cells_of y9 hb hy9; have hy0 := Nat.lt_of_lt_of_le hy0 hb.size; have hy9 := Nat.lt_of_lt_of_le hy9 hb.size; have hbel := hbel.trans (hb.mono hbel.size); clear hb))
    go_wp2_with (refine wpList_storeRowTo (Z := hrow z32) rfl (.tmp 8) (.tmp 22) 25 rfl (by rw [hz]; kernel_rfl) rfl (by rfl) y9 (by rw [hz]; rfl) hzone ?_)
    have hrd := run_loadVar_row (P := Tryd.prog) _ _ 25 25 _ (0, 0) _ (setRow_heap _ _ _ _ _ _ y9) Tryd.underlying25 rfl (by rw [hz]; kernel_rfl)
    refine bodyPost_ret (v := .tuple #[.agg (hrow z32), .bool false]) ?_ rfl ?_
    · simp [results, Tryd.results10, asAddr, hrd]
      try rfl
    exact ⟨rfl, below_setRow hbel (by omega) _⟩
theorem hload9 {P : Program} {o : Oper} {a : Act} {C : World → Prop} {K : Act → Prop} {v : Value} (t : TypeId) (p : Operand) {ad : Value} (hop : o.op = Op.load t p) (hp : a.eval p = ad)
    (hl : ∀ w, C w → (Instr.loadAt t ad).run P w = .ok v w) (h : K (a.put o.dst v)) : o.quiet P a C K := by
  refine ⟨v, fun w hw => ?_, h⟩
  unfold Oper.quietAt
  have := hl w hw
  simp [execOp, hop, hp, this, Result.andThen, Oper.quietUpon]
  try exact hw
def hsB (l m : List H32) : Bool := decide (l = m)
set_option maxRecDepth 100000 in
set_option maxHeartbeats 2000000 in
theorem hashes_any (a1 a2 : Option Addr) (n1 n2 c1 c2 : Nat) (es fs : List H32) (w : World) (h1 : RowAt w a1 (es.flatMap H32.cells)) (h2 : RowAt w a2 (fs.flatMap H32.cells)) (hn : es.length = n1) (hm : fs.length = n2) (hnm : n1 ≤ maxLen) (hmm : n2 ≤ maxLen) :
    Calls Tryd.prog 22 #[.slice a1 n1 c1, .slice a2 n2 c2] w fun e w' => e = .returned (.bool (hsB es fs)) ∧ Below w.heap.size w w' := by
  by_cases hnn : n1 = n2
  · subst hnn
    obtain ⟨r, hF⟩ : ∃ r, hsB es fs = r := ⟨_, rfl⟩
    rw [hF]
    have HF := Lib.hid hF
    have HN := Lib.hid hn
    have HM := Lib.hid hm
    clear hF hn hm hmm
    unfold maxLen at hnm
    have e0 : ((n1 : Int) != (n1 : Int)) = false := by simp
    have e0n : (n1 != n1) = false := by simp
    go_enter Tryd.func22, Tryd.ntmps22
    go_upto_region 4 with fail
    go_loopw [5] (fun i wr => ∃ k : Nat, k ≤ n1 ∧ i = .int .i64 k ∧ Hid (es.take k = fs.take k) ∧ Below w.heap.size w wr) (fun i _ => n1 - (intOf i).toNat)
    case atStart => exact ⟨0, Nat.zero_le _, rfl, Lib.hid rfl, Below.refl _ _⟩
    case round =>
    obtain ⟨k, hk, rfl, HT, hbel⟩ := hrel
    by_cases hlt : k < n1
    · have d1 : decide ((k : Int) < (n1 : Int)) = true := decide_eq_true (by omega)
      have d1n : decide (k < n1) = true := decide_eq_true hlt
      have hkl : k < es.length := by rw [HN.out]; exact hlt
      have hkm : k < fs.length := by rw [HM.out]; exact hlt
      obtain ⟨b1, o1, rfl, hb1, hg1⟩ := hs_at (h1.below hbel) hkl
      obtain ⟨b2, o2, rfl, hb2, hg2⟩ := hs_at (h2.below hbel) hkm
      obtain ⟨q, hp⟩ : ∃ p, es[k] = p := ⟨_, rfl⟩
      obtain ⟨q2, hp2⟩ : ∃ p, fs[k] = p := ⟨_, rfl⟩
      rw [hp] at hg1
      rw [hp2] at hg2
      have l1 := fun m => load_hash_mid hg1 hb1 m
      have l2 := fun m => load_hash_mid hg2 hb2 m
      have hEQ := fun V : World => (run_equal_hash V 25 q.1 q2.1 q.2 q2.2 Tryd.underlying25 Tryd.underlying5 (by kernel_rfl) : (Op.equalIn 10000 25 (.agg (hrow q.1)) (.agg (hrow q2.1))).run Tryd.prog V = .ok (q.1 == q2.1) V)
      obtain ⟨eb, heb⟩ : ∃ b, (q.1 == q2.1) = b := ⟨_, rfl⟩
      simp only [heb] at hEQ
      have n0 : (0 : Int) ≤ (k : Int) := by omega
      have n1' : (k : Int) < (n1 : Int) := by omega
      have n2' : ((k : Nat) : Int).toNat = k := by omega
      cases eb
      · have hbad : r = false := by
          rw [← HF.out]
          unfold hsB
          rw [decide_eq_false_iff_not]
          intro q9
          have : q = q2 := by subst q9; rw [← hp, ← hp2]
          subst this
          simp at heb
        subst hbad
        clear heb hp hp2 hg1 hg2
        go_upto_region 6 with fail
        refine wp_region_below (by kernel_rfl) (by kernel_rfl) ?_
        repeat (first | (go_big_quiet_want; refine hload9 (v := .agg (hrow q.1)) 25 (.tmp 19) rfl (by rfl) (by rintro _ ⟨m, rfl⟩; exact l1 m) ?_; simp only [Act.put, List.setIfInBounds_toArray, List.set_cons_succ, List.set_cons_zero]; go_big_quiet_on) | (go_big_quiet_want; refine hload9 (v := .agg (hrow q2.1)) 25 (.tmp 23) rfl (by rfl) (by rintro _ ⟨m, rfl⟩; exact l2 m) ?_; simp only [Act.put, List.setIfInBounds_toArray, List.set_cons_succ, List.set_cons_zero]; go_big_quiet_on) | (go_big_quiet_step (fail)))
        intro w9 hw9
        have hb9 := beyond_below hw9
        go_wp2
        go_ret
        exact ⟨rfl, hbel.trans (hb9.mono hbel.size)⟩
      · have hsame : es.take (k + 1) = fs.take (k + 1) := by rw [List.take_succ_eq_append_getElem hkl, List.take_succ_eq_append_getElem hkm, HT.out, hp, hp2, Subtype.ext (beq_iff_eq.1 heb)]
        have HS := Lib.hid hsame
        clear heb hp hp2 hg1 hg2 hsame
        go_upto_region 6 with fail
        refine wp_region_below (by kernel_rfl) (by kernel_rfl) ?_
        repeat (first | (go_big_quiet_want; refine hload9 (v := .agg (hrow q.1)) 25 (.tmp 19) rfl (by rfl) (by rintro _ ⟨m, rfl⟩; exact l1 m) ?_; simp only [Act.put, List.setIfInBounds_toArray, List.set_cons_succ, List.set_cons_zero]; go_big_quiet_on) | (go_big_quiet_want; refine hload9 (v := .agg (hrow q2.1)) 25 (.tmp 23) rfl (by rfl) (by rintro _ ⟨m, rfl⟩; exact l2 m) ?_; simp only [Act.put, List.setIfInBounds_toArray, List.set_cons_succ, List.set_cons_zero]; go_big_quiet_on) | (go_big_quiet_step (fail)))
        intro w9 hw9
        have hb9 := beyond_below hw9
        go_wp2
        go_roundw
        case rel => exact ⟨k + 1, by omega, by go_num, HS, hbel.trans (hb9.mono hbel.size)⟩
        case measure => (simp [intOf]) <;> omega
    · have d1 : decide ((k : Int) < (n1 : Int)) = false := decide_eq_false (by omega)
      have d1n : decide (k < n1) = false := decide_eq_false hlt
      have hgood : r = true := by
        have := HT.out
        rw [List.take_of_length_le (by rw [HN.out]; omega), List.take_of_length_le (by rw [HM.out]; omega)] at this
        rw [← HF.out]; exact decide_eq_true this
      subst hgood
      go_wp2
      go_ret
      exact ⟨rfl, hbel⟩
  · have e0 : ((n1 : Int) != (n2 : Int)) = true := by simpa using fun h => hnn (by omega)
    have e0n : (n1 != n2) = true := by simpa using hnn
    rw [show hsB es fs = false from decide_eq_false (fun q => hnn (by rw [← hn, ← hm, q]))]
    clear hn hm hnn
    go_enter Tryd.func22, Tryd.ntmps22
    go_wp2
    go_ret
    exact ⟨rfl, Below.refl _ _⟩
end Go.Proofs.YtfikbaoiialfeaaDoor
namespace Go.Proofs.YtfikbaoiialfeaaDoor
open Go.RowKit
attribute [local go_sem] strV
set_option linter.unusedVariables false

theorem halfN_of {n j : Nat} (h1 : 2 ^ j < n) (h2 : n ≤ 2 ^ (j + 1)) : halfN n = 2 ^ j := by
  unfold halfN
  congr 1
  have h0 : n - 1 ≠ 0 := by have := Nat.two_pow_pos j; omega
  have a := (Nat.le_log2 h0).2 (show 2 ^ j ≤ n - 1 by omega)
  have b := (Nat.log2_lt h0).2 (show n - 1 < 2 ^ (j + 1) by omega)
  omega
set_option maxRecDepth 100000 in
set_option maxHeartbeats 4000000 in
theorem refHalf_any (n : Int) (w : World) :
    Calls Tryd.prog 19 #[.int .i64 n] w fun e w' => e = .returned (.int .i64 (halfI n)) ∧ Below w.heap.size w w' := by
  by_cases c1 : n < 2
  · have d1 : decide (n < 2) = true := decide_eq_true c1
    rw [show halfI n = 0 by unfold halfI; rw [if_pos (.inl c1)]]
    go_enter Tryd.func19, Tryd.ntmps19
    go_wp2
    go_ret
    exact ⟨rfl, Below.refl _ _⟩
  have d1 : decide (n < 2) = false := decide_eq_false c1
  by_cases c2 : 1073741824 < n
  · have d2 : decide (1073741824 < n) = true := decide_eq_true c2
    rw [show halfI n = 0 by unfold halfI; rw [if_pos (.inr c2)]]
    go_enter Tryd.func19, Tryd.ntmps19
    go_wp2
    go_ret
    exact ⟨rfl, Below.refl _ _⟩
  have d2 : decide (1073741824 < n) = false := decide_eq_false c2
  obtain ⟨m, rfl⟩ : ∃ m : Nat, n = m := ⟨n.toNat, by omega⟩
  rw [show halfI (m : Int) = (halfN m : Nat) by unfold halfI; rw [if_neg (by omega), Int.toNat_natCast]]
  obtain ⟨H, hH⟩ : ∃ H, halfN m = H := ⟨_, rfl⟩
  rw [hH]
  have HH := Lib.hid hH
  clear hH
  go_enter Tryd.func19, Tryd.ntmps19
  go_upto_region 4 with fail
  go_loopw [3] (fun a wr => ∃ h j : Nat, Hid (h = 2 ^ j) ∧ 1 ≤ h ∧ h < m ∧ a = .int .i64 h ∧ wr = w) (fun a _ => m - (intOf a).toNat)
  case atStart => exact ⟨1, 0, Lib.hid rfl, by omega, by omega, rfl, rfl⟩
  case round =>
    obtain ⟨h, j, HJ, h1, h2, rfl, rfl⟩ := hrel
    have n1 : (1 : Int) ≤ (h : Int) := by omega
    have n2 : (h : Int) ≤ 1073741824 := by omega
    by_cases hlt : 2 * h < m
    · have e1 : decide (2 * (h : Int) < (m : Int)) = true := decide_eq_true (by omega)
      have e1n : decide (2 * h < m) = true := decide_eq_true hlt
      go_wp2
      go_roundw
      case rel => exact ⟨2 * h, j + 1, Lib.hid (by rw [Nat.pow_succ, ← HJ.out]; omega), by omega, hlt, by go_num, by first | rfl | trivial⟩
      case measure => (simp [intOf]) <;> omega
    · have e1 : decide (2 * (h : Int) < (m : Int)) = false := decide_eq_false (by omega)
      have e1n : decide (2 * h < m) = false := decide_eq_false hlt
      have hfin : H = h := by
        rw [← HH.out, HJ.out]
        exact halfN_of (by rw [← HJ.out]; exact h2) (by rw [Nat.pow_succ, ← HJ.out]; omega)
      subst hfin
      go_wp2
      go_ret
      exact ⟨rfl, Below.refl _ _⟩
theorem refHalfN_any (n : Nat) (w : World) (h2 : 2 ≤ n) (h3 : n ≤ 1073741824) :
    Calls Tryd.prog 19 #[.int .i64 n] w fun e w' => e = .returned (.int .i64 (halfN n : Nat)) ∧ Below w.heap.size w w' := by
  have := refHalf_any (n : Int) w
  rw [show halfI (n : Int) = (halfN n : Nat) by unfold halfI; rw [if_neg (by omega), Int.toNat_natCast]] at this
  exact this
set_option maxRecDepth 100000 in
set_option maxHeartbeats 4000000 in
theorem refNode_any (q r : List UInt8) (w : World) (hq : q.length = 32) (hr : r.length = 32) :
    Calls Tryd.prog 15 #[.agg (hrow q), .agg (hrow r)] w fun e w' => e = .returned (.agg (hrow (nodeF q r))) ∧ Below w.heap.size w w' := by
  have zq : (hrow q).size = 32 := by rw [hrow_size]; exact hq
  have zr : (hrow r).size = 32 := by rw [hrow_size]; exact hr
  have g0 := al3_0 w (.cells (hrow q) 25) (.cells (hrow r) 25) (.cells #[Value.int .u8 0, Value.int .u8 0, Value.int .u8 0, Value.int .u8 0, Value.int .u8 0, Value.int .u8 0, Value.int .u8 0, Value.int .u8 0, Value.int .u8 0, Value.int .u8 0, Value.int .u8 0, Value.int .u8 0, Value.int .u8 0, Value.int .u8 0, Value.int .u8 0, Value.int .u8 0, Value.int .u8 0, Value.int .u8 0, Value.int .u8 0, Value.int .u8 0, Value.int .u8 0, Value.int .u8 0, Value.int .u8 0, Value.int .u8 0, Value.int .u8 0, Value.int .u8 0, Value.int .u8 0, Value.int .u8 0, Value.int .u8 0, Value.int .u8 0, Value.int .u8 0, Value.int .u8 0] 25)
  have g1 := al3_1 w (.cells (hrow q) 25) (.cells (hrow r) 25) (.cells #[Value.int .u8 0, Value.int .u8 0, Value.int .u8 0, Value.int .u8 0, Value.int .u8 0, Value.int .u8 0, Value.int .u8 0, Value.int .u8 0, Value.int .u8 0, Value.int .u8 0, Value.int .u8 0, Value.int .u8 0, Value.int .u8 0, Value.int .u8 0, Value.int .u8 0, Value.int .u8 0, Value.int .u8 0, Value.int .u8 0, Value.int .u8 0, Value.int .u8 0, Value.int .u8 0, Value.int .u8 0, Value.int .u8 0, Value.int .u8 0, Value.int .u8 0, Value.int .u8 0, Value.int .u8 0, Value.int .u8 0, Value.int .u8 0, Value.int .u8 0, Value.int .u8 0, Value.int .u8 0] 25)
  have g2 := al3_2 w (.cells (hrow q) 25) (.cells (hrow r) 25) (.cells #[Value.int .u8 0, Value.int .u8 0, Value.int .u8 0, Value.int .u8 0, Value.int .u8 0, Value.int .u8 0, Value.int .u8 0, Value.int .u8 0, Value.int .u8 0, Value.int .u8 0, Value.int .u8 0, Value.int .u8 0, Value.int .u8 0, Value.int .u8 0, Value.int .u8 0, Value.int .u8 0, Value.int .u8 0, Value.int .u8 0, Value.int .u8 0, Value.int .u8 0, Value.int .u8 0, Value.int .u8 0, Value.int .u8 0, Value.int .u8 0, Value.int .u8 0, Value.int .u8 0, Value.int .u8 0, Value.int .u8 0, Value.int .u8 0, Value.int .u8 0, Value.int .u8 0, Value.int .u8 0] 25)
  have hbA := al3_below w (.cells (hrow q) 25) (.cells (hrow r) 25) (.cells #[Value.int .u8 0, Value.int .u8 0, Value.int .u8 0, Value.int .u8 0, Value.int .u8 0, Value.int .u8 0, Value.int .u8 0, Value.int .u8 0, Value.int .u8 0, Value.int .u8 0, Value.int .u8 0, Value.int .u8 0, Value.int .u8 0, Value.int .u8 0, Value.int .u8 0, Value.int .u8 0, Value.int .u8 0, Value.int .u8 0, Value.int .u8 0, Value.int .u8 0, Value.int .u8 0, Value.int .u8 0, Value.int .u8 0, Value.int .u8 0, Value.int .u8 0, Value.int .u8 0, Value.int .u8 0, Value.int .u8 0, Value.int .u8 0, Value.int .u8 0, Value.int .u8 0, Value.int .u8 0] 25)
  go_enter Tryd.func15, Tryd.ntmps15
  go_upto_region 1 with fail
  refine wp_nameE _ (fun W1 hX => ?_)
  have y0 : W1.heap[w.heap.size]? = some (.cells (hrow q) 25 (0, 0)) := by rw [hX]; exact g0
  have y1 : W1.heap[w.heap.size + 1]? = some (.cells (hrow r) 25 (0, 0)) := by rw [hX]; exact g1
  have y9 : W1.heap[w.heap.size + 2]? = some (.cells #[Value.int .u8 0, Value.int .u8 0, Value.int .u8 0, Value.int .u8 0, Value.int .u8 0, Value.int .u8 0, Value.int .u8 0, Value.int .u8 0, Value.int .u8 0, Value.int .u8 0, Value.int .u8 0, Value.int .u8 0, Value.int .u8 0, Value.int .u8 0, Value.int .u8 0, Value.int .u8 0, Value.int .u8 0, Value.int .u8 0, Value.int .u8 0, Value.int .u8 0, Value.int .u8 0, Value.int .u8 0, Value.int .u8 0, Value.int .u8 0, Value.int .u8 0, Value.int .u8 0, Value.int .u8 0, Value.int .u8 0, Value.int .u8 0, Value.int .u8 0, Value.int .u8 0, Value.int .u8 0] 25 (0, 0)) := by rw [hX]; exact g2
  have hbel : Below w.heap.size w W1 := by rw [hX]; exact hbA
  clear hX g0 g1 g2 hbA
  have hy9 : w.heap.size + 2 < W1.heap.size := (Array.getElem?_eq_some_iff.1 y9).1
  obtain ⟨X, hX⟩ : ∃ X : ByteArray, (⟨q.toArray⟩ : ByteArray) = X := ⟨_, rfl⟩
  obtain ⟨Y, hY⟩ : ∃ Y : ByteArray, (⟨r.toArray⟩ : ByteArray) = Y := ⟨_, rfl⟩
  have hXs : X.size = 32 := by rw [← hX]; exact hq
  have hYs : Y.size = 32 := by rw [← hY]; exact hr
  have h1s : (⟨#[1]⟩ : ByteArray).size = 1 := rfl
  have hcat1 : ¬ 9223372036854775807 < (⟨#[1]⟩ : ByteArray).size + X.size := by omega
  have hcat2 : ¬ 9223372036854775807 < ((⟨#[1]⟩ : ByteArray) ++ X).size + Y.size := by rw [ByteArray.size_append]; omega
  have hcat3 : ¬ 9223372036854775807 < (⟨#[1]⟩ : ByteArray).size + X.size + Y.size := by omega
  have hcat4 : ¬ 9223372036854775807 < 1 + X.size + Y.size := by omega
  have hcat5 : ¬ 9223372036854775807 < 1 + X.size := by omega
  clear h1s
  refine wp_region_facts_tail 7 rfl [Fact.eq (.agg (hrow q)), Fact.eq (.string X), Fact.eq (.string ((⟨#[1]⟩ : ByteArray) ++ X)), Fact.eq (.agg (hrow r)), Fact.eq (.string Y), Fact.eq (.string (((⟨#[1]⟩ : ByteArray) ++ X) ++ Y)), Fact.eq (.agg (hrow (nodeF q r)))] (by kernel_rfl) (by kernel_rfl) (by kernel_rfl) (by kernel_rfl) (by kernel_rfl) (fun x => by simp only [List.take_succ_cons, List.take_zero, fillFrom, Act.put, List.setIfInBounds_toArray, List.set_cons_succ, List.set_cons_zero]; rfl) ?_ ?_
  · refine ⟨?_, ?_, ?_, ?_, ?_, ?_, ?_, trivial⟩
    · intro x w' hbw hd
      clear hd
      have hgc := cells_of y0 hbw (by omega)
      go_wp2_with (first | (refine wpList_loadRow rfl (.tmp 2) 25 rfl Tryd.underlying25 (by rw [zq]; kernel_rfl) rfl hgc ?_))
      exact frPost_mk rfl (by repeat (first | assumption | exact Below.refl _ _ | refine bch ?_ (by assumption) | refine Below.alloc ?_ (by simp) _)) rfl
    · intro x w' hbw hd
      have d0 : x 0 = .agg (hrow q) := hd 0 rfl
      clear hd
      have CC := refText_any w' q hq
      rw [hX] at CC
      go_wp2_with (first | (go_at_call 69; refine (CC).mono ?_; rintro e wx ⟨rfl, hbx⟩))
      exact frPost_mk rfl (by repeat (first | assumption | exact Below.refl _ _ | refine bch ?_ (by assumption) | refine Below.alloc ?_ (by simp) _)) rfl
    · intro x w' hbw hd
      have d1 : x 1 = .string X := hd 1 rfl
      clear hd
      go_wp2_with fail
      exact frPost_mk rfl (by repeat (first | assumption | exact Below.refl _ _ | refine bch ?_ (by assumption) | refine Below.alloc ?_ (by simp) _)) rfl
    · intro x w' hbw hd
      clear hd
      have hgc := cells_of y1 hbw (by omega)
      go_wp2_with (first | (refine wpList_loadRow rfl (.tmp 3) 25 rfl Tryd.underlying25 (by rw [zr]; kernel_rfl) rfl hgc ?_))
      exact frPost_mk rfl (by repeat (first | assumption | exact Below.refl _ _ | refine bch ?_ (by assumption) | refine Below.alloc ?_ (by simp) _)) rfl
    · intro x w' hbw hd
      have d3 : x 3 = .agg (hrow r) := hd 3 rfl
      clear hd
      have CC := refText_any w' r hr
      rw [hY] at CC
      go_wp2_with (first | (go_at_call 69; refine (CC).mono ?_; rintro e wx ⟨rfl, hbx⟩))
      exact frPost_mk rfl (by repeat (first | assumption | exact Below.refl _ _ | refine bch ?_ (by assumption) | refine Below.alloc ?_ (by simp) _)) rfl
    · intro x w' hbw hd
      have d2 : x 2 = .string ((⟨#[1]⟩ : ByteArray) ++ X) := hd 2 rfl
      have d4 : x 4 = .string Y := hd 4 rfl
      clear hd
      go_wp2_with fail
      exact frPost_mk rfl (by repeat (first | assumption | exact Below.refl _ _ | refine bch ?_ (by assumption) | refine Below.alloc ?_ (by simp) _)) rfl
    · intro x w' hbw hd
      have d5 : x 5 = .string (((⟨#[1]⟩ : ByteArray) ++ X) ++ Y) := hd 5 rfl
      clear hd
      have CC := refSum_any (((⟨#[1]⟩ : ByteArray) ++ X) ++ Y) w' (by rw [ByteArray.size_append, ByteArray.size_append, show (⟨#[1]⟩ : ByteArray).size = 1 from rfl]; omega)
      rw [show (((⟨#[1]⟩ : ByteArray) ++ X) ++ Y : ByteArray).data.toList = [1] ++ q ++ r by rw [← hX, ← hY]; simp, show shaF ([1] ++ q ++ r) = nodeF q r from rfl] at CC
      go_wp2_with (first | (go_at_call 66; refine (CC).mono ?_; rintro e wx ⟨rfl, hbx⟩))
      exact frPost_mk rfl (by repeat (first | assumption | exact Below.refl _ _ | refine bch ?_ (by assumption) | refine Below.alloc ?_ (by simp) _)) rfl
  · intro x w' hbw hall
    have hf : x 6 = .agg (hrow (nodeF q r)) := hall 6 (by decide)
    clear hall
    simp only [hf, List.drop_succ_cons, List.drop_zero]
    have hl : (nodeF q r).length = 32 := nodeF_len _ _
    have hsz : (hrow (nodeF q r)).size = 32 := by rw [hrow_size]; exact hl
    have hone := hrow_one (nodeF q r)
    have y9 := cells_of y9 hbw hy9
    have hbel := hbel.trans (hbw.mono hbel.size)
    go_wp2_with (refine wpList_storeRowTo rfl (.tmp 4) (.tmp 11) 25 rfl (by rw [hsz]; kernel_rfl) rfl rfl y9 (by rw [hsz]; rfl) hone ?_)
    refine bodyPost_ret (v := .agg (hrow (nodeF q r))) ?_ rfl ?_
    · simp [results, Tryd.results15, asAddr]
      exact run_loadVar_row _ _ 25 25 _ (0, 0) _ (setRow_heap _ _ _ _ _ _ y9) Tryd.underlying25 rfl (by rw [hsz]; kernel_rfl)
    exact ⟨rfl, below_setRow hbel (by omega) _⟩
set_option maxRecDepth 100000 in
set_option maxHeartbeats 6400000 in
theorem refTop_any : ∀ (m : Nat) (l : List H32) (a : Option Addr) (cap : Nat) (w : World), l.length = m → m ≤ 1000000 → m ≤ cap → cap ≤ maxLen → RowAt w a (l.flatMap H32.cells) → True →
    Calls Tryd.prog 21 #[.slice a m cap] w fun e w' => e = .returned (.agg (hrow (topH l).1)) ∧ Below w.heap.size w w' := by
  intro m
  induction m using Nat.strongRecOn with
  | _ m ih =>
  intro l a cap w hl hm hcap hcm hr hW
  have g9 := heap_push w #[Value.int .u8 0, Value.int .u8 0, Value.int .u8 0, Value.int .u8 0, Value.int .u8 0, Value.int .u8 0, Value.int .u8 0, Value.int .u8 0, Value.int .u8 0, Value.int .u8 0, Value.int .u8 0, Value.int .u8 0, Value.int .u8 0, Value.int .u8 0, Value.int .u8 0, Value.int .u8 0, Value.int .u8 0, Value.int .u8 0, Value.int .u8 0, Value.int .u8 0, Value.int .u8 0, Value.int .u8 0, Value.int .u8 0, Value.int .u8 0, Value.int .u8 0, Value.int .u8 0, Value.int .u8 0, Value.int .u8 0, Value.int .u8 0, Value.int .u8 0, Value.int .u8 0, Value.int .u8 0] 25
  have hbA : Below w.heap.size w (w.alloc (.cells #[Value.int .u8 0, Value.int .u8 0, Value.int .u8 0, Value.int .u8 0, Value.int .u8 0, Value.int .u8 0, Value.int .u8 0, Value.int .u8 0, Value.int .u8 0, Value.int .u8 0, Value.int .u8 0, Value.int .u8 0, Value.int .u8 0, Value.int .u8 0, Value.int .u8 0, Value.int .u8 0, Value.int .u8 0, Value.int .u8 0, Value.int .u8 0, Value.int .u8 0, Value.int .u8 0, Value.int .u8 0, Value.int .u8 0, Value.int .u8 0, Value.int .u8 0, Value.int .u8 0, Value.int .u8 0, Value.int .u8 0, Value.int .u8 0, Value.int .u8 0, Value.int .u8 0, Value.int .u8 0] 25)) := Below.alloc (Below.refl _ _) (Nat.le_refl _) _
  rcases Nat.lt_or_ge m 2 with hm2 | hm2
  · rcases Nat.eq_zero_or_pos m with h0 | h0
    · obtain rfl := h0
      obtain rfl := List.eq_nil_of_length_eq_zero hl
      have HT : Hid ((topH []).1 = z32) := Lib.hid (by rw [topH_nil]; rfl)
      have hz : (hrow z32).size = 32 := by rfl
      have hzone := hrow_one z32
      go_enter Tryd.func21, Tryd.ntmps21
      go_upto_region 1 with fail
      refine wp_nameE _ (fun W1 hX => ?_)
      have y9 : W1.heap[w.heap.size]? = some (.cells #[Value.int .u8 0, Value.int .u8 0, Value.int .u8 0, Value.int .u8 0, Value.int .u8 0, Value.int .u8 0, Value.int .u8 0, Value.int .u8 0, Value.int .u8 0, Value.int .u8 0, Value.int .u8 0, Value.int .u8 0, Value.int .u8 0, Value.int .u8 0, Value.int .u8 0, Value.int .u8 0, Value.int .u8 0, Value.int .u8 0, Value.int .u8 0, Value.int .u8 0, Value.int .u8 0, Value.int .u8 0, Value.int .u8 0, Value.int .u8 0, Value.int .u8 0, Value.int .u8 0, Value.int .u8 0, Value.int .u8 0, Value.int .u8 0, Value.int .u8 0, Value.int .u8 0, Value.int .u8 0] 25 (0, 0)) := by rw [hX]; exact g9
      have hbel : Below w.heap.size w W1 := by rw [hX]; exact hbA
      clear hX g9 hbA
      have hy9 : w.heap.size < W1.heap.size := (Array.getElem?_eq_some_iff.1 y9).1
      go_wp2_with (refine wpList_storeRowTo (Z := hrow z32) rfl (.tmp 2) (.tmp 7) 25 rfl (by rw [hz]; kernel_rfl) rfl (by rfl) y9 (by rw [hz]; rfl) hzone ?_)
      refine bodyPost_ret (v := .agg (hrow z32)) ?_ rfl ?_
      · simp [results, Tryd.results21, asAddr]
        exact run_loadVar_row _ _ 25 25 _ (0, 0) _ (setRow_heap _ _ _ _ _ _ y9) Tryd.underlying25 rfl (by rw [hz]; kernel_rfl)
      exact ⟨by rw [HT.out], below_setRow hbel (Nat.le_refl _) _⟩
    · obtain rfl : m = 1 := by omega
      obtain ⟨q, rfl⟩ := List.length_eq_one_iff.1 hl
      have HT : Hid ((topH [q]).1 = q.1) := Lib.hid (by rw [topH_one])
      have hq : (hrow q.1).size = 32 := by rw [hrow_size]; exact q.2
      have hqone := hrow_one q.1
      have hrB := hr.below hbA
      obtain ⟨b, off, rfl, hb, hrg⟩ := hs_at hrB (k := 0) (by simp)
      simp only [Nat.zero_mul, Nat.add_zero, List.getElem_cons_zero] at hrg
      have hqi : (Tryd.prog.info? 25).map (·.size) = some q.cells.length := by rw [H32.cells_len]; kernel_rfl
      go_enter Tryd.func21, Tryd.ntmps21
      go_upto_region 1 with fail
      refine wp_nameE _ (fun W1 hX => ?_)
      have y9 : W1.heap[w.heap.size]? = some (.cells #[Value.int .u8 0, Value.int .u8 0, Value.int .u8 0, Value.int .u8 0, Value.int .u8 0, Value.int .u8 0, Value.int .u8 0, Value.int .u8 0, Value.int .u8 0, Value.int .u8 0, Value.int .u8 0, Value.int .u8 0, Value.int .u8 0, Value.int .u8 0, Value.int .u8 0, Value.int .u8 0, Value.int .u8 0, Value.int .u8 0, Value.int .u8 0, Value.int .u8 0, Value.int .u8 0, Value.int .u8 0, Value.int .u8 0, Value.int .u8 0, Value.int .u8 0, Value.int .u8 0, Value.int .u8 0, Value.int .u8 0, Value.int .u8 0, Value.int .u8 0, Value.int .u8 0, Value.int .u8 0] 25 (0, 0)) := by rw [hX]; exact g9
      have hrg : W1.rangeAt b off q.cells := by rw [hX]; exact hrg
      have hbel : Below w.heap.size w W1 := by rw [hX]; exact hbA
      clear hX g9 hbA
      have hy9 : w.heap.size < W1.heap.size := (Array.getElem?_eq_some_iff.1 y9).1
      go_wp2_with (first | (refine wpList_load_mid rfl 25 (.tmp 12) rfl b off rfl q.cells _ hrg Tryd.underlying25 rfl hqi ?_; rw [H32.row]) | (refine wpList_storeRowTo (Z := hrow q.1) rfl (.tmp 2) (.tmp 13) 25 rfl (by rw [hq]; kernel_rfl) rfl (by rfl) y9 (by rw [hq]; rfl) hqone ?_))
      refine bodyPost_ret (v := .agg (hrow q.1)) ?_ rfl ?_
      · simp [results, Tryd.results21, asAddr]
        exact run_loadVar_row _ _ 25 25 _ (0, 0) _ (setRow_heap _ _ _ _ _ _ y9) Tryd.underlying25 rfl (by rw [hq]; kernel_rfl)
      exact ⟨by rw [HT.out], below_setRow hbel (Nat.le_refl _) _⟩
  · have d0 : ((m : Int) == 0) = false := beq_eq_false_iff_ne.2 (by omega)
    have d1 : ((m : Int) == 1) = false := beq_eq_false_iff_ne.2 (by omega)
    have hr1 := hs_take hr (halfN l.length)
    obtain ⟨b, off, rfl, hb, _⟩ := hs_at hr (k := 0) (by omega)
    have hr2 := hs_drop hr (halfN l.length)
    have HT := topH_two (l := l) (by omega)
    have CH := fun W : World => refHalfN_any m W hm2 (by omega)
    have hlt := halfN_lt hm2
    have hpos := halfN_pos m
    rw [hl] at hr1 hr2 HT
    have IH1 := fun W => ih (halfN m) hlt (l.take (halfN m)) (some ⟨b, off, none⟩) cap W (by rw [List.length_take]; omega) (by omega) (by omega) hcm
    have IH2 := fun W => ih (m - halfN m) (by omega) (l.drop (halfN m)) (some ⟨b, off + halfN m * 32, none⟩) (cap - halfN m) W (by rw [List.length_drop]; omega) (by omega) (by omega) (by omega)
    obtain ⟨h, hh⟩ : ∃ h, halfN m = h := ⟨_, rfl⟩
    simp only [hh] at hr1 hr2 HT CH hlt hpos IH1 IH2
    obtain ⟨T1, hT1⟩ : ∃ T, topH (l.take h) = T := ⟨_, rfl⟩
    obtain ⟨T2, hT2⟩ : ∃ T, topH (l.drop h) = T := ⟨_, rfl⟩
    simp only [hT1] at HT IH1
    simp only [hT2] at HT IH2
    have HT : Hid ((topH l).1 = nodeF T1.1 T2.1) := Lib.hid (by rw [HT]; rfl)
    clear hh hT1 hT2 ih
    have n1 : (0 : Int) ≤ (h : Int) := by omega
    have n2 : (h : Int) ≤ (cap : Int) := by omega
    have n3 : (h : Int) ≤ (m : Int) := by omega
    have n4 : (m : Int) ≤ (cap : Int) := by omega
    have n5 : ((h : Nat) : Int).toNat = h := by omega
    have n6 : h ≤ cap := by omega
    have n7 : h ≤ m := by omega
    have hr1 := hr1.below hbA
    have hr2 := hr2.below hbA
    have hW := trivial
    go_enter Tryd.func21, Tryd.ntmps21
    go_upto_region 1 with fail
    refine wp_nameE _ (fun W1 hX => ?_)
    have y9 : W1.heap[w.heap.size]? = some (.cells #[Value.int .u8 0, Value.int .u8 0, Value.int .u8 0, Value.int .u8 0, Value.int .u8 0, Value.int .u8 0, Value.int .u8 0, Value.int .u8 0, Value.int .u8 0, Value.int .u8 0, Value.int .u8 0, Value.int .u8 0, Value.int .u8 0, Value.int .u8 0, Value.int .u8 0, Value.int .u8 0, Value.int .u8 0, Value.int .u8 0, Value.int .u8 0, Value.int .u8 0, Value.int .u8 0, Value.int .u8 0, Value.int .u8 0, Value.int .u8 0, Value.int .u8 0, Value.int .u8 0, Value.int .u8 0, Value.int .u8 0, Value.int .u8 0, Value.int .u8 0, Value.int .u8 0, Value.int .u8 0] 25 (0, 0)) := by rw [hX]; exact g9
    have hr1 : RowAt W1 (some ⟨b, off, none⟩) ((l.take h).flatMap H32.cells) := by rw [hX]; exact hr1
    have hr2 : RowAt W1 (some ⟨b, off + h * 32, none⟩) ((l.drop h).flatMap H32.cells) := by rw [hX]; exact hr2
    have hW : True := trivial
    have hbel : Below w.heap.size w W1 := by rw [hX]; exact hbA
    clear hX g9 hbA
    have hy9 : w.heap.size < W1.heap.size := (Array.getElem?_eq_some_iff.1 y9).1
    go_upto_region 6 with (go_at_call 19; refine (CH _).mono ?_; rintro e w2 ⟨rfl, hb2⟩)
    have y9 := cells_of y9 hb2 hy9
    have hbel := hbel.trans (hb2.mono hbel.size)
    have hr1 := hr1.below hb2
    have hr2 := hr2.below hb2
    have hW := trivial
    have hy9 : w.heap.size < w2.heap.size := (Array.getElem?_eq_some_iff.1 y9).1
    clear hb2 CH
    refine wp_region_facts_tail 9 rfl [Fact.eq (.slice (some ⟨b, off, none⟩) m cap), Fact.eq (.int .i64 h), Fact.eq (.slice (some ⟨b, off, none⟩) h cap), Fact.eq (.agg (hrow T1.1)), Fact.eq (.slice (some ⟨b, off, none⟩) m cap), Fact.eq (.int .i64 h), Fact.eq (.slice (some ⟨b, off + h * 32, none⟩) (m - h) (cap - h)), Fact.eq (.agg (hrow T2.1)), Fact.eq (.agg (hrow (nodeF T1.1 T2.1)))] (by kernel_rfl) (by kernel_rfl) (by kernel_rfl) (by kernel_rfl) (by kernel_rfl) (fun x => by simp only [List.take_succ_cons, List.take_zero, fillFrom, Act.put, List.setIfInBounds_toArray, List.set_cons_succ, List.set_cons_zero]; rfl) ?_ ?_
    · refine ⟨?_, ?_, ?_, ?_, ?_, ?_, ?_, ?_, ?_, trivial⟩
      · intro x w' hbw hd
        clear hd
        go_wp2_with fail
        exact frPost_mk rfl (by repeat (first | assumption | exact Below.refl _ _ | refine bch ?_ (by assumption) | refine Below.alloc ?_ (by simp) _)) rfl
      · intro x w' hbw hd
        clear hd
        go_wp2_with fail
        exact frPost_mk rfl (by repeat (first | assumption | exact Below.refl _ _ | refine bch ?_ (by assumption) | refine Below.alloc ?_ (by simp) _)) rfl
      · intro x w' hbw hd
        have d0 : x 0 = .slice (some ⟨b, off, none⟩) m cap := hd 0 rfl
        have d1 : x 1 = .int .i64 h := hd 1 rfl
        clear hd
        go_wp2_with fail
        exact frPost_mk rfl (by repeat (first | assumption | exact Below.refl _ _ | refine bch ?_ (by assumption) | refine Below.alloc ?_ (by simp) _)) rfl
      · intro x w' hbw hd
        have d2 : x 2 = .slice (some ⟨b, off, none⟩) h cap := hd 2 rfl
        clear hd
        have CC := IH1 w' (hr1.below hbw) trivial
        go_wp2_with (first | (go_at_call 21; refine (CC).mono ?_; rintro e wx ⟨rfl, hbx⟩))
        exact frPost_mk rfl (by repeat (first | assumption | exact Below.refl _ _ | refine bch ?_ (by assumption) | refine Below.alloc ?_ (by simp) _)) rfl
      · intro x w' hbw hd
        clear hd
        go_wp2_with fail
        exact frPost_mk rfl (by repeat (first | assumption | exact Below.refl _ _ | refine bch ?_ (by assumption) | refine Below.alloc ?_ (by simp) _)) rfl
      · intro x w' hbw hd
        clear hd
        go_wp2_with fail
        exact frPost_mk rfl (by repeat (first | assumption | exact Below.refl _ _ | refine bch ?_ (by assumption) | refine Below.alloc ?_ (by simp) _)) rfl
      · intro x w' hbw hd
        have d4 : x 4 = .slice (some ⟨b, off, none⟩) m cap := hd 4 rfl
        have d5 : x 5 = .int .i64 h := hd 5 rfl
        clear hd
        go_wp2_with fail
        exact frPost_mk rfl (by repeat (first | assumption | exact Below.refl _ _ | refine bch ?_ (by assumption) | refine Below.alloc ?_ (by simp) _)) rfl
      · intro x w' hbw hd
        have d6 : x 6 = .slice (some ⟨b, off + h * 32, none⟩) (m - h) (cap - h) := hd 6 rfl
        clear hd
        have CC := IH2 w' (hr2.below hbw) trivial
        go_wp2_with (first | (go_at_call 21; refine (CC).mono ?_; rintro e wx ⟨rfl, hbx⟩))
        exact frPost_mk rfl (by repeat (first | assumption | exact Below.refl _ _ | refine bch ?_ (by assumption) | refine Below.alloc ?_ (by simp) _)) rfl
      · intro x w' hbw hd
        have d3 : x 3 = .agg (hrow T1.1) := hd 3 rfl
        have d7 : x 7 = .agg (hrow T2.1) := hd 7 rfl
        clear hd
        have CC := refNode_any T1.1 T2.1 w' T1.2 T2.2
        go_wp2_with (first | (go_at_call 15; refine (CC).mono ?_; rintro e wx ⟨rfl, hbx⟩))
        exact frPost_mk rfl (by repeat (first | assumption | exact Below.refl _ _ | refine bch ?_ (by assumption) | refine Below.alloc ?_ (by simp) _)) rfl
    · intro x w' hbw hall
      have hf : x 8 = .agg (hrow (nodeF T1.1 T2.1)) := hall 8 (by decide)
      clear hall
      simp only [hf, List.drop_succ_cons, List.drop_zero]
      have hl := nodeF_len T1.1 T2.1
      have hsz : (hrow (nodeF T1.1 T2.1)).size = 32 := by rw [hrow_size]; exact hl
      have hone := hrow_one (nodeF T1.1 T2.1)
      have y9 := cells_of y9 hbw hy9
      have hbel := hbel.trans (hbw.mono hbel.size)
      go_wp2_with (refine wpList_storeRowTo rfl (.tmp 2) (.tmp 25) 25 rfl (by rw [hsz]; kernel_rfl) rfl rfl y9 (by rw [hsz]; rfl) hone ?_)
      refine bodyPost_ret (v := .agg (hrow (nodeF T1.1 T2.1))) ?_ rfl ?_
      · simp [results, Tryd.results21, asAddr]
        exact run_loadVar_row _ _ 25 25 _ (0, 0) _ (setRow_heap _ _ _ _ _ _ y9) Tryd.underlying25 rfl (by rw [hsz]; kernel_rfl)
      exact ⟨by rw [HT.out], below_setRow hbel (Nat.le_refl _) _⟩
set_option maxRecDepth 100000 in
set_option maxHeartbeats 8000000 in
theorem refWay_any : ∀ (m : Nat) (l : List H32) (i : Nat) (a : Option Addr) (cap : Nat) (w : World), l.length = m → i < m → m ≤ 1000000 → m ≤ cap → cap ≤ maxLen → RowAt w a (l.flatMap H32.cells) → True →
    Calls Tryd.prog 24 #[.slice a m cap, .int .i64 i] w (WayPost w l i) := by
  intro m
  induction m using Nat.strongRecOn with
  | _ m ih =>
  intro l i a cap w hl hi hm hcap hcm hr hW
  have d0 : decide ((i : Int) < 0) = false := decide_eq_false (by omega)
  have d1 : decide ((m : Int) ≤ (i : Int)) = false := decide_eq_false (by omega)
  have d1n : decide (m ≤ i) = false := decide_eq_false (by omega)
  rcases Nat.lt_or_ge m 2 with hm2 | hm2
  · obtain rfl : m = 1 := by omega
    obtain rfl : i = 0 := by omega
    have hw0 : wayH l 0 = [] := wayH_none (by omega)
    have HW0 := Lib.hid hw0
    clear hw0 ih
    go_enter Tryd.func24, Tryd.ntmps24
    go_wp2
    go_ret
    refine ⟨_, rfl, ?_, Below.refl _ _⟩
    rw [HW0.out]
    exact ⟨rfl, .inl ⟨rfl, rfl⟩⟩
  have d2 : decide ((m : Int) < 2) = false := decide_eq_false (by omega)
  have d2n : decide (m < 2) = false := decide_eq_false (by omega)
  obtain ⟨b, off, rfl, hb, _⟩ := hs_at hr (k := 0) (by omega)
  have hr1 := hs_take hr (halfN l.length)
  have hr2 := hs_drop hr (halfN l.length)
  have CH := fun W : World => refHalfN_any m W hm2 (by omega)
  have hlt := halfN_lt hm2
  have hpos := halfN_pos m
  have hlen : (wayH l i).length ≤ 30 := by rw [way_len m l i hl hi]; exact deepN_30 (by omega)
  rw [hl] at hr1 hr2
  obtain ⟨i0, hi0, hz0', hz1, hz2⟩ := info_parts Tryd.infoH
  by_cases hh : i < halfN m
  · have hwl := wayH_left (l := l) (i := i) (by omega) (by rw [hl]; exact hh)
    rw [hl] at hwl
    have IH := fun W => ih (halfN m) hlt (l.take (halfN m)) i (some ⟨b, off, none⟩) cap W (by rw [List.length_take]; omega) hh (by omega) (by omega) hcm
    have CT := fun W => refTop_any (m - halfN m) (l.drop (halfN m)) (some ⟨b, off + halfN m * 32, none⟩) (cap - halfN m) W (by rw [List.length_drop]; omega) (by omega) (by omega) (by omega)
    obtain ⟨h, hhh⟩ : ∃ h, halfN m = h := ⟨_, rfl⟩
    simp only [hhh] at hr1 hr2 hwl CH hlt hpos hh IH CT
    obtain ⟨T2, hT2⟩ : ∃ T, topH (l.drop h) = T := ⟨_, rfl⟩
    simp only [hT2] at hwl CT
    have hwn : (wayH (l.take h) i).length + 1 ≤ 30 := by rw [hwl, List.length_append] at hlen; exact hlen
    have HWL := Lib.hid hwl
    have hrW := hr1
    have hrT := hr2
    clear hhh hT2 ih hwl hlen hr1 hr2
    have n1 : (0 : Int) ≤ (h : Int) := by omega
    have n2 : (h : Int) ≤ (cap : Int) := by omega
    have n3 : (h : Int) ≤ (m : Int) := by omega
    have n4 : (m : Int) ≤ (cap : Int) := by omega
    have n5 : ((h : Nat) : Int).toNat = h := by omega
    have n6 : h ≤ cap := by omega
    have n7 : h ≤ m := by omega
    have dd : decide ((i : Int) < (h : Int)) = true := decide_eq_true (by omega)
    have ddn : decide (i < h) = true := decide_eq_true hh
    go_enter Tryd.func24, Tryd.ntmps24
    go_upto_region 5 with (go_at_call 19; refine (CH _).mono ?_; rintro e w2 ⟨rfl, hb2⟩)
    have hbel := hb2
    have hrW := hrW.below hb2
    have hrT := hrT.below hb2
    have hW := trivial
    clear hb2 CH
    refine wp_region_facts_chain 10 (by decide) [Fact.eq (.slice (some ⟨b, off, none⟩) m cap), Fact.eq (.int .i64 h), Fact.eq (.slice (some ⟨b, off, none⟩) h cap), Fact.eq (.int .i64 i), Fact.own w.heap.size (wayH (l.take h) i).length ((wayH (l.take h) i).flatMap H32.cells), Fact.eq (.slice (some ⟨b, off, none⟩) m cap), Fact.eq (.int .i64 h), Fact.eq (.slice (some ⟨b, off + h * 32, none⟩) (m - h) (cap - h)), Fact.eq (.agg (hrow T2.1)), Fact.row (1) (T2.cells)] (by kernel_rfl) (by kernel_rfl) (by kernel_rfl) (by kernel_rfl) (by kernel_rfl) (by kernel_rfl) (by kernel_rfl) (fun x => by simp only [List.take_succ_cons, List.take_zero, fillFrom, Act.put, List.setIfInBounds_toArray, List.set_cons_succ, List.set_cons_zero]; rfl) ?_ ?_
    · refine ⟨?_, ?_, ?_, ?_, ?_, ?_, ?_, ?_, ?_, ?_, trivial⟩
      · intro x w' hbw hd
        clear hd
        go_wp2_with fail
        exact frPost_mk rfl (by repeat (first | assumption | exact Below.refl _ _ | refine bch ?_ (by assumption) | refine Below.alloc ?_ (by simp) _)) rfl
      · intro x w' hbw hd
        clear hd
        go_wp2_with fail
        exact frPost_mk rfl (by repeat (first | assumption | exact Below.refl _ _ | refine bch ?_ (by assumption) | refine Below.alloc ?_ (by simp) _)) rfl
      · intro x w' hbw hd
        have d0 : x 0 = .slice (some ⟨b, off, none⟩) m cap := hd 0 rfl
        have d1 : x 1 = .int .i64 h := hd 1 rfl
        clear hd
        go_wp2_with fail
        exact frPost_mk rfl (by repeat (first | assumption | exact Below.refl _ _ | refine bch ?_ (by assumption) | refine Below.alloc ?_ (by simp) _)) rfl
      · intro x w' hbw hd
        clear hd
        go_wp2_with fail
        exact frPost_mk rfl (by repeat (first | assumption | exact Below.refl _ _ | refine bch ?_ (by assumption) | refine Below.alloc ?_ (by simp) _)) rfl
      · intro x w' hbw hd
        have d2 : x 2 = .slice (some ⟨b, off, none⟩) h cap := hd 2 rfl
        have d3 : x 3 = .int .i64 i := hd 3 rfl
        clear hd
        have CC := IH w' (hrW.below hbw) trivial
        go_wp2_with (first | (go_at_call 24; refine CC.mono ?_; rintro e wx ⟨vx, rfl, hox, hbx⟩))
        exact frPost_mk rfl (by repeat (first | assumption | exact Below.refl _ _ | refine bch ?_ (by assumption) | refine Below.alloc ?_ (by simp) _)) (own_lower hox (Nat.le_trans hbel.size hbw.size))
      · intro x w' hbw hd
        clear hd
        go_wp2_with fail
        exact frPost_mk rfl (by repeat (first | assumption | exact Below.refl _ _ | refine bch ?_ (by assumption) | refine Below.alloc ?_ (by simp) _)) rfl
      · intro x w' hbw hd
        clear hd
        go_wp2_with fail
        exact frPost_mk rfl (by repeat (first | assumption | exact Below.refl _ _ | refine bch ?_ (by assumption) | refine Below.alloc ?_ (by simp) _)) rfl
      · intro x w' hbw hd
        have d5 : x 5 = .slice (some ⟨b, off, none⟩) m cap := hd 5 rfl
        have d6 : x 6 = .int .i64 h := hd 6 rfl
        clear hd
        go_wp2_with fail
        exact frPost_mk rfl (by repeat (first | assumption | exact Below.refl _ _ | refine bch ?_ (by assumption) | refine Below.alloc ?_ (by simp) _)) rfl
      · intro x w' hbw hd
        have d7 : x 7 = .slice (some ⟨b, off + h * 32, none⟩) (m - h) (cap - h) := hd 7 rfl
        clear hd
        have CC := CT w' (hrT.below hbw) trivial
        go_wp2_with (first | (go_at_call 21; refine (CC).mono ?_; rintro e wx ⟨rfl, hbx⟩))
        exact frPost_mk rfl (by repeat (first | assumption | exact Below.refl _ _ | refine bch ?_ (by assumption) | refine Below.alloc ?_ (by simp) _)) rfl
      · intro x w' hbw hd
        have d8 : x 8 = .agg (hrow T2.1) := hd 8 rfl
        clear hd
        have hsz : (hrow T2.1).size = 32 := by rw [hrow_size]; exact T2.2
        have hszL : (hrow T2.1).toList.length = 32 := by rw [H32.list]; exact H32.cells_len _
        go_wp2_with fail
        refine frPost_mk rfl (by repeat (first | assumption | exact Below.refl _ _ | refine bch ?_ (by assumption) | refine Below.alloc ?_ (by simp) _)) ?_; show (Fact.row (1) (T2.cells)).holds _ _; exact ⟨_, _, rfl, by rw [fold_row _ (hrow T2.1) 32 hsz (by rfl), ← H32.list]; exact row_newH _ _ _⟩
    · intro x w' hbw hall
      have ho := hall 4 (by decide)
      obtain ⟨a9, c9, hx9, hr9⟩ := (show (Fact.row (1) (T2.cells)).holds (x 9) w' from hall 9 (by decide))
      clear hall
      have ho : w'.ownsRow w.heap.size 25 32 (x 4) (wayH (l.take h) i).length ((wayH (l.take h) i).flatMap H32.cells) := ho
      have hbel := hbel.trans (hbw.mono hbel.size)
      rcases hr9 with hr9 | ⟨b9, o9, rfl, hb9, hc9⟩
      · have := H32.cells_len T2; rw [hr9] at this; cases this
      have hnews : ∀ j u, T2.cells[j]? = some u → w'.cell? ((⟨b9, o9, none⟩ : Addr).add j) = some u := fun j u hj => by
        rw [Addr.add_mid, hc9 j (List.getElem?_eq_some_iff.1 hj).1, hj]
      simp only [hx9, List.drop_succ_cons, List.drop_zero]
      go_wp2_with (at_builtin; refine wpList_append_own _ rfl (.tmp 29) (.tmp 34) 22 rfl w.heap.size 25 i0 (.agg #[.int .u8 0, .int .u8 0, .int .u8 0, .int .u8 0, .int .u8 0, .int .u8 0, .int .u8 0, .int .u8 0, .int .u8 0, .int .u8 0, .int .u8 0, .int .u8 0, .int .u8 0, .int .u8 0, .int .u8 0, .int .u8 0, .int .u8 0, .int .u8 0, .int .u8 0, .int .u8 0, .int .u8 0, .int .u8 0, .int .u8 0, .int .u8 0, .int .u8 0, .int .u8 0, .int .u8 0, .int .u8 0, .int .u8 0, .int .u8 0, .int .u8 0, .int .u8 0]) 32 32 Tryd.underlying22 hi0 hz0' hz1 hz2 rfl (by decide) (x 4) _ _ rfl ho ⟨b9, o9, none⟩ 1 c9 T2.cells rfl (by rw [H32.cells_len]) hnews hs_one1 (by unfold maxLen; omega) (by omega) hbel.size ?_)
      intro v9 w9 hown hgr _
      have hb9' : Below w.heap.size w' w9 := below_grown ho hgr hbel.size
      go_wp2
      go_ret
      refine ⟨_, rfl, ?_, hbel.trans hb9'⟩
      rw [HWL.out, List.length_append, List.flatMap_append, List.flatMap_cons, List.flatMap_nil, List.append_nil]
      exact hown
  · have hwl := wayH_right (l := l) (i := i) (by omega) (by omega) (by rw [hl]; exact hh)
    rw [hl] at hwl
    have IH := fun W => ih (m - halfN m) (by omega) (l.drop (halfN m)) (i - halfN m) (some ⟨b, off + halfN m * 32, none⟩) (cap - halfN m) W (by rw [List.length_drop]; omega) (by omega) (by omega) (by omega) (by omega)
    have CT := fun W => refTop_any (halfN m) (l.take (halfN m)) (some ⟨b, off, none⟩) cap W (by rw [List.length_take]; omega) (by omega) (by omega) hcm
    obtain ⟨h, hhh⟩ : ∃ h, halfN m = h := ⟨_, rfl⟩
    simp only [hhh] at hr1 hr2 hwl CH hlt hpos hh IH CT
    obtain ⟨j, hj⟩ : ∃ j, i - h = j := ⟨_, rfl⟩
    simp only [hj] at hwl IH
    obtain ⟨T2, hT2⟩ : ∃ T, topH (l.take h) = T := ⟨_, rfl⟩
    simp only [hT2] at hwl CT
    have hwn : (wayH (l.drop h) j).length + 1 ≤ 30 := by rw [hwl, List.length_append] at hlen; exact hlen
    have HWL := Lib.hid hwl
    have hrT := hr1
    have hrW := hr2
    clear hhh hT2 ih hwl hlen hr1 hr2
    have n1 : (0 : Int) ≤ (h : Int) := by omega
    have n2 : (h : Int) ≤ (cap : Int) := by omega
    have n3 : (h : Int) ≤ (m : Int) := by omega
    have n4 : (m : Int) ≤ (cap : Int) := by omega
    have n5 : ((h : Nat) : Int).toNat = h := by omega
    have n6 : h ≤ cap := by omega
    have n7 : h ≤ m := by omega
    have dd : decide ((i : Int) < (h : Int)) = false := decide_eq_false (by omega)
    have ddn : decide (i < h) = false := decide_eq_false hh
    go_enter Tryd.func24, Tryd.ntmps24
    go_upto_region 6 with (go_at_call 19; refine (CH _).mono ?_; rintro e w2 ⟨rfl, hb2⟩)
    have hbel := hb2
    have hrW := hrW.below hb2
    have hrT := hrT.below hb2
    have hW := trivial
    clear hb2 CH
    refine wp_region_facts_chain 12 (by decide) [Fact.eq (.slice (some ⟨b, off, none⟩) m cap), Fact.eq (.int .i64 h), Fact.eq (.slice (some ⟨b, off + h * 32, none⟩) (m - h) (cap - h)), Fact.eq (.int .i64 i), Fact.eq (.int .i64 h), Fact.eq (.int .i64 (j : Int)), Fact.own w.heap.size (wayH (l.drop h) j).length ((wayH (l.drop h) j).flatMap H32.cells), Fact.eq (.slice (some ⟨b, off, none⟩) m cap), Fact.eq (.int .i64 h), Fact.eq (.slice (some ⟨b, off, none⟩) h cap), Fact.eq (.agg (hrow T2.1)), Fact.row (1) (T2.cells)] (by kernel_rfl) (by kernel_rfl) (by kernel_rfl) (by kernel_rfl) (by kernel_rfl) (by kernel_rfl) (by kernel_rfl) (fun x => by simp only [List.take_succ_cons, List.take_zero, fillFrom, Act.put, List.setIfInBounds_toArray, List.set_cons_succ, List.set_cons_zero]; rfl) ?_ ?_
    · refine ⟨?_, ?_, ?_, ?_, ?_, ?_, ?_, ?_, ?_, ?_, ?_, ?_, trivial⟩
      · intro x w' hbw hd
        clear hd
        go_wp2_with fail
        exact frPost_mk rfl (by repeat (first | assumption | exact Below.refl _ _ | refine bch ?_ (by assumption) | refine Below.alloc ?_ (by simp) _)) rfl
      · intro x w' hbw hd
        clear hd
        go_wp2_with fail
        exact frPost_mk rfl (by repeat (first | assumption | exact Below.refl _ _ | refine bch ?_ (by assumption) | refine Below.alloc ?_ (by simp) _)) rfl
      · intro x w' hbw hd
        have d0 : x 0 = .slice (some ⟨b, off, none⟩) m cap := hd 0 rfl
        have d1 : x 1 = .int .i64 h := hd 1 rfl
        clear hd
        go_wp2_with fail
        exact frPost_mk rfl (by repeat (first | assumption | exact Below.refl _ _ | refine bch ?_ (by assumption) | refine Below.alloc ?_ (by simp) _)) rfl
      · intro x w' hbw hd
        clear hd
        go_wp2_with fail
        exact frPost_mk rfl (by repeat (first | assumption | exact Below.refl _ _ | refine bch ?_ (by assumption) | refine Below.alloc ?_ (by simp) _)) rfl
      · intro x w' hbw hd
        clear hd
        go_wp2_with fail
        exact frPost_mk rfl (by repeat (first | assumption | exact Below.refl _ _ | refine bch ?_ (by assumption) | refine Below.alloc ?_ (by simp) _)) rfl
      · intro x w' hbw hd
        have d3 : x 3 = .int .i64 i := hd 3 rfl
        have d4 : x 4 = .int .i64 h := hd 4 rfl
        clear hd
        have hsub : (i : Int) - (h : Int) = ((j : Nat) : Int) := by omega
        have hs1 : (0 : Int) ≤ (i : Int) - (h : Int) := by omega
        have hs2 : (i : Int) - (h : Int) ≤ 1000000 := by omega
        go_wp2_with fail
        exact frPost_mk rfl (by repeat (first | assumption | exact Below.refl _ _ | refine bch ?_ (by assumption) | refine Below.alloc ?_ (by simp) _)) (by show Value.int .i64 _ = Value.int .i64 _; first | rfl | rw [hsub])
      · intro x w' hbw hd
        have d2 : x 2 = .slice (some ⟨b, off + h * 32, none⟩) (m - h) (cap - h) := hd 2 rfl
        have d5 : x 5 = .int .i64 (j : Int) := hd 5 rfl
        clear hd
        have CC := IH w' (hrW.below hbw) trivial
        go_wp2_with (first | (go_at_call 24; refine CC.mono ?_; rintro e wx ⟨vx, rfl, hox, hbx⟩))
        exact frPost_mk rfl (by repeat (first | assumption | exact Below.refl _ _ | refine bch ?_ (by assumption) | refine Below.alloc ?_ (by simp) _)) (own_lower hox (Nat.le_trans hbel.size hbw.size))
      · intro x w' hbw hd
        clear hd
        go_wp2_with fail
        exact frPost_mk rfl (by repeat (first | assumption | exact Below.refl _ _ | refine bch ?_ (by assumption) | refine Below.alloc ?_ (by simp) _)) rfl
      · intro x w' hbw hd
        clear hd
        go_wp2_with fail
        exact frPost_mk rfl (by repeat (first | assumption | exact Below.refl _ _ | refine bch ?_ (by assumption) | refine Below.alloc ?_ (by simp) _)) rfl
      · intro x w' hbw hd
        have d7 : x 7 = .slice (some ⟨b, off, none⟩) m cap := hd 7 rfl
        have d8 : x 8 = .int .i64 h := hd 8 rfl
        clear hd
        go_wp2_with fail
        exact frPost_mk rfl (by repeat (first | assumption | exact Below.refl _ _ | refine bch ?_ (by assumption) | refine Below.alloc ?_ (by simp) _)) rfl
      · intro x w' hbw hd
        have d9 : x 9 = .slice (some ⟨b, off, none⟩) h cap := hd 9 rfl
        clear hd
        have CC := CT w' (hrT.below hbw) trivial
        go_wp2_with (first | (go_at_call 21; refine (CC).mono ?_; rintro e wx ⟨rfl, hbx⟩))
        exact frPost_mk rfl (by repeat (first | assumption | exact Below.refl _ _ | refine bch ?_ (by assumption) | refine Below.alloc ?_ (by simp) _)) rfl
      · intro x w' hbw hd
        have d10 : x 10 = .agg (hrow T2.1) := hd 10 rfl
        clear hd
        have hsz : (hrow T2.1).size = 32 := by rw [hrow_size]; exact T2.2
        have hszL : (hrow T2.1).toList.length = 32 := by rw [H32.list]; exact H32.cells_len _
        go_wp2_with fail
        refine frPost_mk rfl (by repeat (first | assumption | exact Below.refl _ _ | refine bch ?_ (by assumption) | refine Below.alloc ?_ (by simp) _)) ?_; show (Fact.row (1) (T2.cells)).holds _ _; exact ⟨_, _, rfl, by rw [fold_row _ (hrow T2.1) 32 hsz (by rfl), ← H32.list]; exact row_newH _ _ _⟩
    · intro x w' hbw hall
      have ho := hall 6 (by decide)
      obtain ⟨a9, c9, hx9, hr9⟩ := (show (Fact.row (1) (T2.cells)).holds (x 11) w' from hall 11 (by decide))
      clear hall
      have ho : w'.ownsRow w.heap.size 25 32 (x 6) (wayH (l.drop h) j).length ((wayH (l.drop h) j).flatMap H32.cells) := ho
      have hbel := hbel.trans (hbw.mono hbel.size)
      rcases hr9 with hr9 | ⟨b9, o9, rfl, hb9, hc9⟩
      · have := H32.cells_len T2; rw [hr9] at this; cases this
      have hnews : ∀ j u, T2.cells[j]? = some u → w'.cell? ((⟨b9, o9, none⟩ : Addr).add j) = some u := fun j u hj => by
        rw [Addr.add_mid, hc9 j (List.getElem?_eq_some_iff.1 hj).1, hj]
      simp only [hx9, List.drop_succ_cons, List.drop_zero]
      go_wp2_with (at_builtin; refine wpList_append_own _ rfl (.tmp 42) (.tmp 47) 22 rfl w.heap.size 25 i0 (.agg #[.int .u8 0, .int .u8 0, .int .u8 0, .int .u8 0, .int .u8 0, .int .u8 0, .int .u8 0, .int .u8 0, .int .u8 0, .int .u8 0, .int .u8 0, .int .u8 0, .int .u8 0, .int .u8 0, .int .u8 0, .int .u8 0, .int .u8 0, .int .u8 0, .int .u8 0, .int .u8 0, .int .u8 0, .int .u8 0, .int .u8 0, .int .u8 0, .int .u8 0, .int .u8 0, .int .u8 0, .int .u8 0, .int .u8 0, .int .u8 0, .int .u8 0, .int .u8 0]) 32 32 Tryd.underlying22 hi0 hz0' hz1 hz2 rfl (by decide) (x 6) _ _ rfl ho ⟨b9, o9, none⟩ 1 c9 T2.cells rfl (by rw [H32.cells_len]) hnews hs_one1 (by unfold maxLen; omega) (by omega) hbel.size ?_)
      intro v9 w9 hown hgr _
      have hb9' : Below w.heap.size w' w9 := below_grown ho hgr hbel.size
      go_wp2
      go_ret
      refine ⟨_, rfl, ?_, hbel.trans hb9'⟩
      rw [HWL.out, List.length_append, List.flatMap_append, List.flatMap_cons, List.flatMap_nil, List.append_nil]
      exact hown
set_option maxRecDepth 100000 in
set_option maxHeartbeats 4000000 in
theorem refDeep_any (n i : Int) (w : World) :
    Calls Tryd.prog 26 #[.int .i64 n, .int .i64 i] w fun e w' => e = .returned (.int .i64 (deepI n i)) ∧ Below w.heap.size w w' := by
  have hbad : ¬ (n ≤ 1073741824 ∧ 0 ≤ i ∧ i < n) → deepI n i = 0 := fun h => by
    unfold deepI insB
    have : (decide (n ≤ 1073741824) && decide (0 ≤ i) && decide (i < n)) = false := by
      cases h9 : (decide (n ≤ 1073741824) && decide (0 ≤ i) && decide (i < n))
      · rfl
      · simp only [Bool.and_eq_true, decide_eq_true_eq] at h9; exact absurd ⟨h9.1.1, h9.1.2, h9.2⟩ h
    rw [this]; rfl
  by_cases c1 : i < 0
  · have d1 : decide (i < 0) = true := decide_eq_true c1
    rw [hbad (by omega)]
    clear hbad
    go_enter Tryd.func26, Tryd.ntmps26
    go_wp2
    go_ret
    exact ⟨rfl, Below.refl _ _⟩
  have d1 : decide (i < 0) = false := decide_eq_false c1
  by_cases c2 : n ≤ i
  · have d2 : decide (n ≤ i) = true := decide_eq_true c2
    rw [hbad (by omega)]
    clear hbad
    go_enter Tryd.func26, Tryd.ntmps26
    go_wp2
    go_ret
    exact ⟨rfl, Below.refl _ _⟩
  have d2 : decide (n ≤ i) = false := decide_eq_false c2
  by_cases c3 : 1073741824 < n
  · have d3 : decide (1073741824 < n) = true := decide_eq_true c3
    rw [hbad (by omega)]
    clear hbad
    go_enter Tryd.func26, Tryd.ntmps26
    go_wp2
    go_ret
    exact ⟨rfl, Below.refl _ _⟩
  have d3 : decide (1073741824 < n) = false := decide_eq_false c3
  clear hbad
  obtain ⟨i, rfl⟩ : ∃ m : Nat, i = m := ⟨i.toNat, by omega⟩
  obtain ⟨n, rfl⟩ : ∃ m : Nat, n = m := ⟨n.toNat, by omega⟩
  have d2n : decide (n ≤ i) = false := decide_eq_false (by omega)
  have hn3 : n ≤ 1073741824 := by omega
  have hiN : i < n := by omega
  have hD30 := deepN_30 (i := i) hn3
  obtain ⟨D, hD⟩ : ∃ D, deepN n i = D := ⟨_, rfl⟩
  rw [show deepI (n : Int) (i : Int) = (D : Nat) by unfold deepI insB; rw [decide_eq_true (by omega), decide_eq_true (by omega), decide_eq_true (by omega)]; simp [hD]]
  rw [hD] at hD30
  have HD := Lib.hid hD
  clear hD c1 c2 c3
  go_enter Tryd.func26, Tryd.ntmps26
  go_upto_region 4 with fail
  go_loopw [0, 1, 5] (fun a b c wr => ∃ N I d : Nat, Below w.heap.size w wr ∧ I < N ∧ N ≤ 1073741824 ∧ Hid (d + deepN N I = D) ∧ a = .int .i64 N ∧ b = .int .i64 I ∧ c = .int .i64 d) (fun a _ _ _ => (intOf a).toNat)
  case atStart => exact ⟨n, i, 0, Below.refl _ _, hiN, hn3, Lib.hid (by rw [HD.out]; omega), rfl, rfl, rfl⟩
  case round =>
    obtain ⟨N, I, d, hbel, h1, h2, HS, rfl, rfl, rfl⟩ := hrel
    have hdD : d ≤ 30 := by have := HS.out; omega
    by_cases hlt : 1 < N
    · have e1 : decide (1 < (N : Int)) = true := decide_eq_true (by omega)
      have e1n : decide (1 < N) = true := decide_eq_true hlt
      have CH := fun W => refHalfN_any N W hlt h2
      have hl := halfN_lt hlt
      have hp := halfN_pos N
      have hdl := deepN_left (n := N) (i := I) hlt
      have hdr := deepN_right (n := N) (i := I) hlt
      obtain ⟨h, hh⟩ : ∃ h, halfN N = h := ⟨_, rfl⟩
      simp only [hh] at CH hl hp hdl hdr
      clear hh
      have m1 : (1 : Int) ≤ (h : Int) := by omega
      have m2 : (h : Int) < (N : Int) := by omega
      have m3 : (N : Int) ≤ 1073741824 := by omega
      have m4 : (d : Int) ≤ 30 := by omega
      by_cases hI : I < h
      · have e2 : decide ((I : Int) < (h : Int)) = true := decide_eq_true (by omega)
        have e2n : decide (I < h) = true := decide_eq_true hI
        have HS2 : Hid (d + 1 + deepN h I = D) := Lib.hid (by have := HS.out; have := hdl hI; omega)
        clear hdl hdr HS
        go_wp2_with (go_at_call 19; refine (CH _).mono ?_; rintro e w2 ⟨rfl, hb⟩; have hbel := hbel.trans (hb.mono hbel.size))
        go_roundw
        case rel => exact ⟨h, I, d + 1, hbel, hI, by omega, HS2, rfl, rfl, by go_num⟩
        case measure => (simp [intOf]) <;> omega
      · have e2 : decide ((I : Int) < (h : Int)) = false := decide_eq_false (by omega)
        have e2n : decide (I < h) = false := decide_eq_false hI
        have HS2 : Hid (d + 1 + deepN (N - h) (I - h) = D) := Lib.hid (by have := HS.out; have := hdr hI; omega)
        clear hdl hdr HS
        have m5 : (h : Int) ≤ (I : Int) := by omega
        go_wp2_with (go_at_call 19; refine (CH _).mono ?_; rintro e w2 ⟨rfl, hb⟩; have hbel := hbel.trans (hb.mono hbel.size))
        go_roundw
        case rel => exact ⟨N - h, I - h, d + 1, hbel, by omega, by omega, HS2, congrArg (Value.int .i64) (by omega), congrArg (Value.int .i64) (by omega), by go_num⟩
        case measure => (simp [intOf]) <;> omega
    · have e1 : decide (1 < (N : Int)) = false := decide_eq_false (by omega)
      have e1n : decide (1 < N) = false := decide_eq_false hlt
      have hfin : d = D := by have := HS.out; rw [deepN_small (by omega)] at this; omega
      subst hfin
      go_wp2
      go_ret
      exact ⟨rfl, hbel⟩
end Go.Proofs.YtfikbaoiialfeaaDoor
