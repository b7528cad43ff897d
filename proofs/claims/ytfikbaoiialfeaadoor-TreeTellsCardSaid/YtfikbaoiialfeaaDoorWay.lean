/- The hashes beside a leaf's path: tree.Way. -/
import Derived.Test.YtfikbaoiialfeaaDoorTreeM
import Derived.Test.YtfikbaoiialfeaaDoorGG
import Derived.Test.YtfikbaoiialfeaaDoorTreeGrows
import Derived.WalkKit
import Derived.ProofKit
import Derived.Handy
import Derived.Below
import Derived.Lib.Hide
import Derived.IntWalk
import Derived.Outline
import Derived.WalkLawsBesides
import Derived.WalkSpells
namespace Go.Proofs.YtfikbaoiialfeaaDoor
open Go.RowKit
attribute [local go_sem] strV
set_option linter.unusedVariables false

theorem Tryd.infoH : (Tryd.prog.info? 25).map (fun i => (i.zero, i.size, i.bytes)) = some (some (.agg #[.int .u8 0, .int .u8 0, .int .u8 0, .int .u8 0, .int .u8 0, .int .u8 0, .int .u8 0, .int .u8 0, .int .u8 0, .int .u8 0, .int .u8 0, .int .u8 0, .int .u8 0, .int .u8 0, .int .u8 0, .int .u8 0, .int .u8 0, .int .u8 0, .int .u8 0, .int .u8 0, .int .u8 0, .int .u8 0, .int .u8 0, .int .u8 0, .int .u8 0, .int .u8 0, .int .u8 0, .int .u8 0, .int .u8 0, .int .u8 0, .int .u8 0, .int .u8 0]), 32, 32) := by kernel_rfl
theorem row_newH (w : World) (cur : Array Value) (t : TypeId) : RowAt (w.alloc (.cells cur t)) (some ⟨w.heap.size, 0, none⟩) cur.toList :=
  .inr ⟨_, 0, rfl, by simp, fun j hj => by
    rw [Nat.zero_add, cell_heap (show (w.heap.push _)[w.heap.size]? = _ by rw [Array.getElem?_push_size]) j]
    simp⟩
theorem fold_set (l : List Value) : ∀ (k : Nat) (a : Array Value), k + l.length ≤ a.size → (l.zipIdx k).foldl (fun c x => c.setIfInBounds x.2 x.1) a = (a.toList.take k ++ l ++ a.toList.drop (k + l.length)).toArray := by
  induction l with
  | nil => intro k a _; simp
  | cons x l ih =>
    intro k a h
    rw [List.length_cons] at h
    rw [List.zipIdx_cons, List.foldl_cons, ih (k + 1) _ (by simp; omega)]
    simp only [Array.toList_setIfInBounds, List.length_cons]
    have hk : k < a.toList.length := by simp; omega
    rw [List.take_succ_eq_append_getElem (by rw [List.length_set]; exact hk), List.getElem_set_self, List.take_set, List.set_eq_of_length_le (by rw [List.length_take]; omega), List.drop_set, if_pos (by omega)]
    rw [show k + 1 + l.length = k + (l.length + 1) by omega]
    simp
theorem fold_row (zs cs : Array Value) (n : Nat) (h1 : cs.size = n) (h2 : zs.size = n) : Array.foldl (fun c x => c.setIfInBounds x.2 x.1) zs cs.zipIdx 0 n = cs := by
  subst h1
  have h3 : cs.zipIdx.size = cs.size := by simp
  rw [← h3, ← Array.foldl_toList, Array.toList_zipIdx, fold_set _ 0 zs (by simp; omega)]
  apply Array.ext'
  simp
  omega
theorem own_keptH {w w' : World} {base : Nat} {e : TypeId} {size n : Nat} {v : Value} {xs : List Value} (h : w.ownsRow base e size v n xs) (hb : Below w.heap.size w w') : w'.ownsRow base e size v n xs := by
  obtain ⟨h1, h2⟩ := h
  refine ⟨h1, ?_⟩
  rcases h2 with h | ⟨g, cap, cur, h3, h4, h5, h6⟩
  · exact .inl h
  · exact .inr ⟨g, cap, cur, h3, h4, (hb.block g (Array.getElem?_eq_some_iff.1 h5).1).trans h5, h6⟩
theorem own_lower {w : World} {base B : Nat} {e : TypeId} {size n : Nat} {v : Value} {xs : List Value} (h : w.ownsRow base e size v n xs) (hb : B ≤ base) : w.ownsRow B e size v n xs := by
  obtain ⟨h1, h2⟩ := h
  refine ⟨h1, ?_⟩
  rcases h2 with h | ⟨g, cap, cur, h3, h4, h5⟩
  · exact .inl h
  · exact .inr ⟨g, cap, cur, h3, Nat.le_trans hb h4, h5⟩
def Fact.own (B : Nat) (n : Nat) (xs : List Value) : Fact := ⟨fun v w => w.ownsRow B 25 32 v n xs, fun _ _ _ h hb => own_keptH h hb⟩
theorem H32.list (q : H32) : (hrow q.1).toList = q.cells := by rw [← H32.row]
theorem hs_one {l : List H32} : ∀ u ∈ l.flatMap H32.cells, u.oneCell' = true := fun u hu => by
  obtain ⟨q, _, hq⟩ := List.mem_flatMap.1 hu
  exact (Array.all_eq_true_iff_forall_mem.1 (hrow_one q.1)) u (by rw [← H32.row]; simpa using hq)
theorem hs_one1 {q : H32} : ∀ u ∈ q.cells, u.oneCell' = true := fun u hu =>
  (Array.all_eq_true_iff_forall_mem.1 (hrow_one q.1)) u (by rw [← H32.row]; simpa using hu)
def WayPost (w : World) (l : List H32) (i : Nat) (e : Ending) (w' : World) : Prop := ∃ v, e = .returned v ∧ w'.ownsRow w.heap.size 25 32 v (wayH l i).length ((wayH l i).flatMap H32.cells) ∧ Below w.heap.size w w'
set_option maxRecDepth 100000 in
set_option maxHeartbeats 8000000 in
theorem way_any : ∀ (m : Nat) (l : List H32) (i : Nat) (a : Option Addr) (cap : Nat) (w : World), l.length = m → i < m → m ≤ 1000000 → m ≤ cap → cap ≤ maxLen → RowAt w a (l.flatMap H32.cells) → SW w →
    Calls Tryd.prog 23 #[.slice a m cap, .int .i64 i] w (WayPost w l i) := by
  intro m
  induction m using Nat.strongRecOn with
  | _ m ih =>
  intro l i a cap w hl hi hm hcap hcm hr hW
  have d0 : decide ((i : Int) < 0) = false := decide_eq_false (by omega)
  have d1 : decide ((m : Int) ≤ (i : Int)) = false := decide_eq_false (by omega)
  have d1n : decide (m ≤ i) = false := decide_eq_false (by omega)
  rcases Nat.lt_or_ge m 2 with hm2 | hm2
  · obtain rfl : m = 1 := by omega
    obtain rfl : i = 0 := by omega
    have hw0 : wayH l 0 = [] := wayH_none (by omega)
    have HW0 := Lib.hid hw0
    clear hw0 ih
    go_enter Tryd.func23, Tryd.ntmps23
    go_wp2
    go_ret
    refine ⟨_, rfl, ?_, Below.refl _ _⟩
    rw [HW0.out]
    exact ⟨rfl, .inl ⟨rfl, rfl⟩⟩
  have d2 : ((m : Int) == 1) = false := beq_eq_false_iff_ne.2 (by omega)
  obtain ⟨b, off, rfl, hb, _⟩ := hs_at hr (k := 0) (by omega)
  have hr1 := hs_take hr (halfN l.length)
  have hr2 := hs_drop hr (halfN l.length)
  have CH := fun W : World => half_any m W hm2 (by omega)
  have hlt := halfN_lt hm2
  have hpos := halfN_pos m
  have hlen : (wayH l i).length ≤ 30 := by rw [way_len m l i hl hi]; exact deepN_30 (by omega)
  rw [hl] at hr1 hr2
  obtain ⟨i0, hi0, hz0', hz1, hz2⟩ := info_parts Tryd.infoH
  by_cases hh : i < halfN m
  · have hwl := wayH_left (l := l) (i := i) (by omega) (by rw [hl]; exact hh)
    rw [hl] at hwl
    have IH := fun W => ih (halfN m) hlt (l.take (halfN m)) i (some ⟨b, off, none⟩) cap W (by rw [List.length_take]; omega) hh (by omega) (by omega) hcm
    have CT := fun W => top_any (m - halfN m) (l.drop (halfN m)) (some ⟨b, off + halfN m * 32, none⟩) (cap - halfN m) W (by rw [List.length_drop]; omega) (by omega) (by omega) (by omega)
    obtain ⟨h, hhh⟩ : ∃ h, halfN m = h := ⟨_, rfl⟩
    simp only [hhh] at hr1 hr2 hwl CH hlt hpos hh IH CT
    obtain ⟨T2, hT2⟩ : ∃ T, topH (l.drop h) = T := ⟨_, rfl⟩
    simp only [hT2] at hwl CT
    have hwn : (wayH (l.take h) i).length + 1 ≤ 30 := by rw [hwl, List.length_append] at hlen; exact hlen
    have HWL := Lib.hid hwl
    have hrW := hr1
    have hrT := hr2
    clear hhh hT2 ih hwl hlen hr1 hr2
    have n1 : (0 : Int) ≤ (h : Int) := by omega
    have n2 : (h : Int) ≤ (cap : Int) := by omega
    have n3 : (h : Int) ≤ (m : Int) := by omega
    have n4 : (m : Int) ≤ (cap : Int) := by omega
    have n5 : ((h : Nat) : Int).toNat = h := by omega
    have n6 : h ≤ cap := by omega
    have n7 : h ≤ m := by omega
    have dd : decide ((i : Int) < (h : Int)) = true := decide_eq_true (by omega)
    have ddn : decide (i < h) = true := decide_eq_true hh
    go_enter Tryd.func23, Tryd.ntmps23
    go_upto_region 5 with (go_at_call 70; refine (CH _).mono ?_; rintro e w2 ⟨rfl, hb2⟩)
    have hbel := hb2
    have hrW := hrW.below hb2
    have hrT := hrT.below hb2
    have hW := hW.below hb2
    clear hb2 CH
    refine wp_region_facts_chain 10 (by decide) [Fact.eq (.slice (some ⟨b, off, none⟩) m cap), Fact.eq (.int .i64 h), Fact.eq (.slice (some ⟨b, off, none⟩) h cap), Fact.eq (.int .i64 i), Fact.own w.heap.size (wayH (l.take h) i).length ((wayH (l.take h) i).flatMap H32.cells), Fact.eq (.slice (some ⟨b, off, none⟩) m cap), Fact.eq (.int .i64 h), Fact.eq (.slice (some ⟨b, off + h * 32, none⟩) (m - h) (cap - h)), Fact.eq (.agg (hrow T2.1)), Fact.row (1) (T2.cells)] (by kernel_rfl) (by kernel_rfl) (by kernel_rfl) (by kernel_rfl) (by kernel_rfl) (by kernel_rfl) (by kernel_rfl) (fun x => by simp only [List.take_succ_cons, List.take_zero, fillFrom, Act.put, List.setIfInBounds_toArray, List.set_cons_succ, List.set_cons_zero]; rfl) ?_ ?_
    · refine ⟨?_, ?_, ?_, ?_, ?_, ?_, ?_, ?_, ?_, ?_, trivial⟩
      · intro x w' hbw hd
        clear hd
        go_wp2_with fail
        exact frPost_mk rfl (by repeat (first | assumption | exact Below.refl _ _ | refine bch ?_ (by assumption) | refine Below.alloc ?_ (by simp) _)) rfl
      · intro x w' hbw hd
        clear hd
        go_wp2_with fail
        exact frPost_mk rfl (by repeat (first | assumption | exact Below.refl _ _ | refine bch ?_ (by assumption) | refine Below.alloc ?_ (by simp) _)) rfl
      · intro x w' hbw hd
        have d0 : x 0 = .slice (some ⟨b, off, none⟩) m cap := hd 0 rfl
        have d1 : x 1 = .int .i64 h := hd 1 rfl
        clear hd
        go_wp2_with fail
        exact frPost_mk rfl (by repeat (first | assumption | exact Below.refl _ _ | refine bch ?_ (by assumption) | refine Below.alloc ?_ (by simp) _)) rfl
      · intro x w' hbw hd
        clear hd
        go_wp2_with fail
        exact frPost_mk rfl (by repeat (first | assumption | exact Below.refl _ _ | refine bch ?_ (by assumption) | refine Below.alloc ?_ (by simp) _)) rfl
      · intro x w' hbw hd
        have d2 : x 2 = .slice (some ⟨b, off, none⟩) h cap := hd 2 rfl
        have d3 : x 3 = .int .i64 i := hd 3 rfl
        clear hd
        have CC := IH w' (hrW.below hbw) (hW.below hbw)
        go_wp2_with (first | (go_at_call 23; refine CC.mono ?_; rintro e wx ⟨vx, rfl, hox, hbx⟩))
        exact frPost_mk rfl (by repeat (first | assumption | exact Below.refl _ _ | refine bch ?_ (by assumption) | refine Below.alloc ?_ (by simp) _)) (own_lower hox (Nat.le_trans hbel.size hbw.size))
      · intro x w' hbw hd
        clear hd
        go_wp2_with fail
        exact frPost_mk rfl (by repeat (first | assumption | exact Below.refl _ _ | refine bch ?_ (by assumption) | refine Below.alloc ?_ (by simp) _)) rfl
      · intro x w' hbw hd
        clear hd
        go_wp2_with fail
        exact frPost_mk rfl (by repeat (first | assumption | exact Below.refl _ _ | refine bch ?_ (by assumption) | refine Below.alloc ?_ (by simp) _)) rfl
      · intro x w' hbw hd
        have d5 : x 5 = .slice (some ⟨b, off, none⟩) m cap := hd 5 rfl
        have d6 : x 6 = .int .i64 h := hd 6 rfl
        clear hd
        go_wp2_with fail
        exact frPost_mk rfl (by repeat (first | assumption | exact Below.refl _ _ | refine bch ?_ (by assumption) | refine Below.alloc ?_ (by simp) _)) rfl
      · intro x w' hbw hd
        have d7 : x 7 = .slice (some ⟨b, off + h * 32, none⟩) (m - h) (cap - h) := hd 7 rfl
        clear hd
        have CC := CT w' (hrT.below hbw) (hW.below hbw)
        go_wp2_with (first | (go_at_call 20; refine (CC).mono ?_; rintro e wx ⟨rfl, hbx⟩))
        exact frPost_mk rfl (by repeat (first | assumption | exact Below.refl _ _ | refine bch ?_ (by assumption) | refine Below.alloc ?_ (by simp) _)) rfl
      · intro x w' hbw hd
        have d8 : x 8 = .agg (hrow T2.1) := hd 8 rfl
        clear hd
        have hsz : (hrow T2.1).size = 32 := by rw [hrow_size]; exact T2.2
        have hszL : (hrow T2.1).toList.length = 32 := by rw [H32.list]; exact H32.cells_len _
        go_wp2_with fail
        refine frPost_mk rfl (by repeat (first | assumption | exact Below.refl _ _ | refine bch ?_ (by assumption) | refine Below.alloc ?_ (by simp) _)) ?_; show (Fact.row (1) (T2.cells)).holds _ _; exact ⟨_, _, rfl, by rw [fold_row _ (hrow T2.1) 32 hsz (by rfl), ← H32.list]; exact row_newH _ _ _⟩
    · intro x w' hbw hall
      have ho := hall 4 (by decide)
      obtain ⟨a9, c9, hx9, hr9⟩ := (show (Fact.row (1) (T2.cells)).holds (x 9) w' from hall 9 (by decide))
      clear hall
      have ho : w'.ownsRow w.heap.size 25 32 (x 4) (wayH (l.take h) i).length ((wayH (l.take h) i).flatMap H32.cells) := ho
      have hbel := hbel.trans (hbw.mono hbel.size)
      rcases hr9 with hr9 | ⟨b9, o9, rfl, hb9, hc9⟩
      · have := H32.cells_len T2; rw [hr9] at this; cases this
      have hnews : ∀ j u, T2.cells[j]? = some u → w'.cell? ((⟨b9, o9, none⟩ : Addr).add j) = some u := fun j u hj => by
        rw [Addr.add_mid, hc9 j (List.getElem?_eq_some_iff.1 hj).1, hj]
      simp only [hx9, List.drop_succ_cons, List.drop_zero]
      go_wp2_with (at_builtin; refine wpList_append_own _ rfl (.tmp 29) (.tmp 34) 22 rfl w.heap.size 25 i0 (.agg #[.int .u8 0, .int .u8 0, .int .u8 0, .int .u8 0, .int .u8 0, .int .u8 0, .int .u8 0, .int .u8 0, .int .u8 0, .int .u8 0, .int .u8 0, .int .u8 0, .int .u8 0, .int .u8 0, .int .u8 0, .int .u8 0, .int .u8 0, .int .u8 0, .int .u8 0, .int .u8 0, .int .u8 0, .int .u8 0, .int .u8 0, .int .u8 0, .int .u8 0, .int .u8 0, .int .u8 0, .int .u8 0, .int .u8 0, .int .u8 0, .int .u8 0, .int .u8 0]) 32 32 Tryd.underlying22 hi0 hz0' hz1 hz2 rfl (by decide) (x 4) _ _ rfl ho ⟨b9, o9, none⟩ 1 c9 T2.cells rfl (by rw [H32.cells_len]) hnews hs_one1 (by unfold maxLen; omega) (by omega) hbel.size ?_)
      intro v9 w9 hown hgr _
      have hb9' : Below w.heap.size w' w9 := below_grown ho hgr hbel.size
      go_wp2
      go_ret
      refine ⟨_, rfl, ?_, hbel.trans hb9'⟩
      rw [HWL.out, List.length_append, List.flatMap_append, List.flatMap_cons, List.flatMap_nil, List.append_nil]
      exact hown
  · have hwl := wayH_right (l := l) (i := i) (by omega) (by omega) (by rw [hl]; exact hh)
    rw [hl] at hwl
    have IH := fun W => ih (m - halfN m) (by omega) (l.drop (halfN m)) (i - halfN m) (some ⟨b, off + halfN m * 32, none⟩) (cap - halfN m) W (by rw [List.length_drop]; omega) (by omega) (by omega) (by omega) (by omega)
    have CT := fun W => top_any (halfN m) (l.take (halfN m)) (some ⟨b, off, none⟩) cap W (by rw [List.length_take]; omega) (by omega) (by omega) hcm
    obtain ⟨h, hhh⟩ : ∃ h, halfN m = h := ⟨_, rfl⟩
    simp only [hhh] at hr1 hr2 hwl CH hlt hpos hh IH CT
    obtain ⟨j, hj⟩ : ∃ j, i - h = j := ⟨_, rfl⟩
    simp only [hj] at hwl IH
    obtain ⟨T2, hT2⟩ : ∃ T, topH (l.take h) = T := ⟨_, rfl⟩
    simp only [hT2] at hwl CT
    have hwn : (wayH (l.drop h) j).length + 1 ≤ 30 := by rw [hwl, List.length_append] at hlen; exact hlen
    have HWL := Lib.hid hwl
    have hrT := hr1
    have hrW := hr2
    clear hhh hT2 ih hwl hlen hr1 hr2
    have n1 : (0 : Int) ≤ (h : Int) := by omega
    have n2 : (h : Int) ≤ (cap : Int) := by omega
    have n3 : (h : Int) ≤ (m : Int) := by omega
    have n4 : (m : Int) ≤ (cap : Int) := by omega
    have n5 : ((h : Nat) : Int).toNat = h := by omega
    have n6 : h ≤ cap := by omega
    have n7 : h ≤ m := by omega
    have dd : decide ((i : Int) < (h : Int)) = false := decide_eq_false (by omega)
    have ddn : decide (i < h) = false := decide_eq_false hh
    go_enter Tryd.func23, Tryd.ntmps23
    go_upto_region 6 with (go_at_call 70; refine (CH _).mono ?_; rintro e w2 ⟨rfl, hb2⟩)
    have hbel := hb2
    have hrW := hrW.below hb2
    have hrT := hrT.below hb2
    have hW := hW.below hb2
    clear hb2 CH
    refine wp_region_facts_chain 12 (by decide) [Fact.eq (.slice (some ⟨b, off, none⟩) m cap), Fact.eq (.int .i64 h), Fact.eq (.slice (some ⟨b, off + h * 32, none⟩) (m - h) (cap - h)), Fact.eq (.int .i64 i), Fact.eq (.int .i64 h), Fact.eq (.int .i64 (j : Int)), Fact.own w.heap.size (wayH (l.drop h) j).length ((wayH (l.drop h) j).flatMap H32.cells), Fact.eq (.slice (some ⟨b, off, none⟩) m cap), Fact.eq (.int .i64 h), Fact.eq (.slice (some ⟨b, off, none⟩) h cap), Fact.eq (.agg (hrow T2.1)), Fact.row (1) (T2.cells)] (by kernel_rfl) (by kernel_rfl) (by kernel_rfl) (by kernel_rfl) (by kernel_rfl) (by kernel_rfl) (by kernel_rfl) (fun x => by simp only [List.take_succ_cons, List.take_zero, fillFrom, Act.put, List.setIfInBounds_toArray, List.set_cons_succ, List.set_cons_zero]; rfl) ?_ ?_
    · refine ⟨?_, ?_, ?_, ?_, ?_, ?_, ?_, ?_, ?_, ?_, ?_, ?_, trivial⟩
      · intro x w' hbw hd
        clear hd
        go_wp2_with fail
        exact frPost_mk rfl (by repeat (first | assumption | exact Below.refl _ _ | refine bch ?_ (by assumption) | refine Below.alloc ?_ (by simp) _)) rfl
      · intro x w' hbw hd
        clear hd
        go_wp2_with fail
        exact frPost_mk rfl (by repeat (first | assumption | exact Below.refl _ _ | refine bch ?_ (by assumption) | refine Below.alloc ?_ (by simp) _)) rfl
      · intro x w' hbw hd
        have d0 : x 0 = .slice (some ⟨b, off, none⟩) m cap := hd 0 rfl
        have d1 : x 1 = .int .i64 h := hd 1 rfl
        clear hd
        go_wp2_with fail
        exact frPost_mk rfl (by repeat (first | assumption | exact Below.refl _ _ | refine bch ?_ (by assumption) | refine Below.alloc ?_ (by simp) _)) rfl
      · intro x w' hbw hd
        clear hd
        go_wp2_with fail
        exact frPost_mk rfl (by repeat (first | assumption | exact Below.refl _ _ | refine bch ?_ (by assumption) | refine Below.alloc ?_ (by simp) _)) rfl
      · intro x w' hbw hd
        clear hd
        go_wp2_with fail
        exact frPost_mk rfl (by repeat (first | assumption | exact Below.refl _ _ | refine bch ?_ (by assumption) | refine Below.alloc ?_ (by simp) _)) rfl
      · intro x w' hbw hd
        have d3 : x 3 = .int .i64 i := hd 3 rfl
        have d4 : x 4 = .int .i64 h := hd 4 rfl
        clear hd
        have hsub : (i : Int) - (h : Int) = ((j : Nat) : Int) := by omega
        have hs1 : (0 : Int) ≤ (i : Int) - (h : Int) := by omega
        have hs2 : (i : Int) - (h : Int) ≤ 1000000 := by omega
        go_wp2_with fail
        exact frPost_mk rfl (by repeat (first | assumption | exact Below.refl _ _ | refine bch ?_ (by assumption) | refine Below.alloc ?_ (by simp) _)) (by show Value.int .i64 _ = Value.int .i64 _; first | rfl | rw [hsub])
      · intro x w' hbw hd
        have d2 : x 2 = .slice (some ⟨b, off + h * 32, none⟩) (m - h) (cap - h) := hd 2 rfl
        have d5 : x 5 = .int .i64 (j : Int) := hd 5 rfl
        clear hd
        have CC := IH w' (hrW.below hbw) (hW.below hbw)
        go_wp2_with (first | (go_at_call 23; refine CC.mono ?_; rintro e wx ⟨vx, rfl, hox, hbx⟩))
        exact frPost_mk rfl (by repeat (first | assumption | exact Below.refl _ _ | refine bch ?_ (by assumption) | refine Below.alloc ?_ (by simp) _)) (own_lower hox (Nat.le_trans hbel.size hbw.size))
      · intro x w' hbw hd
        clear hd
        go_wp2_with fail
        exact frPost_mk rfl (by repeat (first | assumption | exact Below.refl _ _ | refine bch ?_ (by assumption) | refine Below.alloc ?_ (by simp) _)) rfl
      · intro x w' hbw hd
        clear hd
        go_wp2_with fail
        exact frPost_mk rfl (by repeat (first | assumption | exact Below.refl _ _ | refine bch ?_ (by assumption) | refine Below.alloc ?_ (by simp) _)) rfl
      · intro x w' hbw hd
        have d7 : x 7 = .slice (some ⟨b, off, none⟩) m cap := hd 7 rfl
        have d8 : x 8 = .int .i64 h := hd 8 rfl
        clear hd
        go_wp2_with fail
        exact frPost_mk rfl (by repeat (first | assumption | exact Below.refl _ _ | refine bch ?_ (by assumption) | refine Below.alloc ?_ (by simp) _)) rfl
      · intro x w' hbw hd
        have d9 : x 9 = .slice (some ⟨b, off, none⟩) h cap := hd 9 rfl
        clear hd
        have CC := CT w' (hrT.below hbw) (hW.below hbw)
        go_wp2_with (first | (go_at_call 20; refine (CC).mono ?_; rintro e wx ⟨rfl, hbx⟩))
        exact frPost_mk rfl (by repeat (first | assumption | exact Below.refl _ _ | refine bch ?_ (by assumption) | refine Below.alloc ?_ (by simp) _)) rfl
      · intro x w' hbw hd
        have d10 : x 10 = .agg (hrow T2.1) := hd 10 rfl
        clear hd
        have hsz : (hrow T2.1).size = 32 := by rw [hrow_size]; exact T2.2
        have hszL : (hrow T2.1).toList.length = 32 := by rw [H32.list]; exact H32.cells_len _
        go_wp2_with fail
        refine frPost_mk rfl (by repeat (first | assumption | exact Below.refl _ _ | refine bch ?_ (by assumption) | refine Below.alloc ?_ (by simp) _)) ?_; show (Fact.row (1) (T2.cells)).holds _ _; exact ⟨_, _, rfl, by rw [fold_row _ (hrow T2.1) 32 hsz (by rfl), ← H32.list]; exact row_newH _ _ _⟩
    · intro x w' hbw hall
      have ho := hall 6 (by decide)
      obtain ⟨a9, c9, hx9, hr9⟩ := (show (Fact.row (1) (T2.cells)).holds (x 11) w' from hall 11 (by decide))
      clear hall
      have ho : w'.ownsRow w.heap.size 25 32 (x 6) (wayH (l.drop h) j).length ((wayH (l.drop h) j).flatMap H32.cells) := ho
      have hbel := hbel.trans (hbw.mono hbel.size)
      rcases hr9 with hr9 | ⟨b9, o9, rfl, hb9, hc9⟩
      · have := H32.cells_len T2; rw [hr9] at this; cases this
      have hnews : ∀ j u, T2.cells[j]? = some u → w'.cell? ((⟨b9, o9, none⟩ : Addr).add j) = some u := fun j u hj => by
        rw [Addr.add_mid, hc9 j (List.getElem?_eq_some_iff.1 hj).1, hj]
      simp only [hx9, List.drop_succ_cons, List.drop_zero]
      go_wp2_with (at_builtin; refine wpList_append_own _ rfl (.tmp 42) (.tmp 47) 22 rfl w.heap.size 25 i0 (.agg #[.int .u8 0, .int .u8 0, .int .u8 0, .int .u8 0, .int .u8 0, .int .u8 0, .int .u8 0, .int .u8 0, .int .u8 0, .int .u8 0, .int .u8 0, .int .u8 0, .int .u8 0, .int .u8 0, .int .u8 0, .int .u8 0, .int .u8 0, .int .u8 0, .int .u8 0, .int .u8 0, .int .u8 0, .int .u8 0, .int .u8 0, .int .u8 0, .int .u8 0, .int .u8 0, .int .u8 0, .int .u8 0, .int .u8 0, .int .u8 0, .int .u8 0, .int .u8 0]) 32 32 Tryd.underlying22 hi0 hz0' hz1 hz2 rfl (by decide) (x 6) _ _ rfl ho ⟨b9, o9, none⟩ 1 c9 T2.cells rfl (by rw [H32.cells_len]) hnews hs_one1 (by unfold maxLen; omega) (by omega) hbel.size ?_)
      intro v9 w9 hown hgr _
      have hb9' : Below w.heap.size w' w9 := below_grown ho hgr hbel.size
      go_wp2
      go_ret
      refine ⟨_, rfl, ?_, hbel.trans hb9'⟩
      rw [HWL.out, List.length_append, List.flatMap_append, List.flatMap_cons, List.flatMap_nil, List.append_nil]
      exact hown
end Go.Proofs.YtfikbaoiialfeaaDoor
