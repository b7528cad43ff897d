/- Hashes as records of 32 cells, lists of them. Lists of hashes, and the top of the tree over them. -/
import Derived.Test.YtpledhipdiephaaDoorSt3
import Derived.Test.YtpledhipdiephaaDoorRows2
import Derived.Test.YtpledhipdiephaaDoorT6
import Derived.Deep.MidRow
import Derived.WalkKit
import Derived.ProofKit
import Derived.Handy
import Derived.Below
import Derived.Lib.Hide
import Derived.IntWalk
import Derived.Outline
import Derived.WalkLawsBesides
import Derived.WalkSpells
import Derived.Test.YtpledhipdiephaaDoorT1
import Derived.Test.YtpledhipdiephaaDoorTreeN
namespace Go.Proofs.YtpledhipdiephaaDoor
open Go.RowKit
attribute [local go_sem] strV
set_option linter.unusedVariables false
/-- A hash: 32 bytes. -/
abbrev H32 := { q : List UInt8 // q.length = 32 }
def H32.cells (q : H32) : List Value := Lib.byteCells q.1
theorem H32.cells_len (q : H32) : q.cells.length = 32 := by unfold H32.cells; rw [Lib.byteCells_length]; exact q.2
theorem H32.row (q : H32) : q.cells.toArray = hrow q.1 := rfl
theorem take_flat {α : Type} (f : α → List Value) (c : Nat) (hf : ∀ x, (f x).length = c) : ∀ (l : List α) (k : Nat), (l.flatMap f).take (k * c) = (l.take k).flatMap f := by
  intro l
  induction l with
  | nil => intro k; simp
  | cons x l ih =>
    intro k
    cases k with
    | zero => simp
    | succ k =>
      rw [List.flatMap_cons, List.take_succ_cons, List.flatMap_cons, Nat.succ_mul, Nat.add_comm, ← hf x, List.take_length_add_append, hf x, ih k]
theorem drop_flat {α : Type} (f : α → List Value) (c : Nat) (hf : ∀ x, (f x).length = c) : ∀ (l : List α) (k : Nat), (l.flatMap f).drop (k * c) = (l.drop k).flatMap f := by
  intro l
  induction l with
  | nil => intro k; simp
  | cons x l ih =>
    intro k
    cases k with
    | zero => simp
    | succ k =>
      rw [List.flatMap_cons, List.drop_succ_cons, Nat.succ_mul, Nat.add_comm, ← hf x, List.drop_length_add_append, hf x, ih k]
theorem RowAt.drop {w : World} {b off : Nat} {vs : List Value} (h : RowAt w (some ⟨b, off, none⟩) vs) (k : Nat) : RowAt w (some ⟨b, off + k, none⟩) (vs.drop k) := by
  rcases h with h | ⟨b', off', ha, hlt, hc⟩
  · exact .inl (by rw [h, List.drop_nil])
  · simp only [Option.some.injEq, Addr.mk.injEq, and_true] at ha
    obtain ⟨rfl, rfl⟩ := ha
    refine .inr ⟨b, off + k, rfl, hlt, fun j hj => ?_⟩
    rw [List.length_drop] at hj
    rw [Nat.add_assoc, hc (k + j) (by omega), List.getElem?_drop]
theorem hs_take {w : World} {a : Option Addr} {l : List H32} (h : RowAt w a (l.flatMap H32.cells)) (k : Nat) : RowAt w a ((l.take k).flatMap H32.cells) := by
  have := h.take (k * 32)
  rwa [take_flat H32.cells 32 H32.cells_len] at this
theorem hs_drop {w : World} {b off : Nat} {l : List H32} (h : RowAt w (some ⟨b, off, none⟩) (l.flatMap H32.cells)) (k : Nat) : RowAt w (some ⟨b, off + k * 32, none⟩) ((l.drop k).flatMap H32.cells) := by
  have := h.drop (k * 32)
  rwa [drop_flat H32.cells 32 H32.cells_len] at this
/-- The cells of hash k. -/
theorem hs_at {w : World} {a : Option Addr} {l : List H32} (h : RowAt w a (l.flatMap H32.cells)) {k : Nat} (hk : k < l.length) :
    ∃ b off, a = some ⟨b, off, none⟩ ∧ b < w.heap.size ∧ w.rangeAt b (off + k * 32) l[k].cells := by
  obtain ⟨b, off, ha, hb, hc⟩ := h.elem H32.cells_len hk (by decide)
  refine ⟨b, off, ha, hb, fun j v hv => ?_⟩
  have hj : j < 32 := by have := (List.getElem?_eq_some_iff.1 hv).1; rwa [H32.cells_len] at this
  rw [Nat.add_assoc, hc j hj, hv]
end Go.Proofs.YtpledhipdiephaaDoor
namespace Go.Proofs.YtpledhipdiephaaDoor
open Go.RowKit
attribute [local go_sem] strV
set_option linter.unusedVariables false
def nodeH (q r : H32) : H32 := ⟨nodeF q.1 r.1, nodeF_len _ _⟩
def zeroH : H32 := ⟨z32, rfl⟩
/-- The top of the tree over l. -/
def topH (l : List H32) : H32 :=
  if h : 2 ≤ l.length then nodeH (topH (l.take (halfN l.length))) (topH (l.drop (halfN l.length))) else l.headD zeroH
termination_by l.length
decreasing_by
  · rw [List.length_take]; have := halfN_lt h; omega
  · rw [List.length_drop]; have := halfN_pos l.length; omega
theorem topH_two {l : List H32} (h : 2 ≤ l.length) : topH l = nodeH (topH (l.take (halfN l.length))) (topH (l.drop (halfN l.length))) := by
  conv => lhs; rw [topH]
  rw [dif_pos h]
theorem topH_nil : topH [] = zeroH := by rw [topH]; rfl
theorem topH_one (q : H32) : topH [q] = q := by rw [topH]; rfl
set_option maxRecDepth 100000 in
set_option maxHeartbeats 6400000 in
theorem top_any : ∀ (m : Nat) (l : List H32) (a : Option Addr) (cap : Nat) (w : World), l.length = m → m ≤ 1000000 → m ≤ cap → cap ≤ maxLen → RowAt w a (l.flatMap H32.cells) → SW w →
    Calls Tryd.prog 76 #[.slice a m cap] w fun e w' => e = .returned (.agg (hrow (topH l).1)) ∧ Below w.heap.size w w' := by
  intro m
  induction m using Nat.strongRecOn with
  | _ m ih =>
  intro l a cap w hl hm hcap hcm hr hW
  have g9 := heap_push w #[Value.int .u8 0, Value.int .u8 0, Value.int .u8 0, Value.int .u8 0, Value.int .u8 0, Value.int .u8 0, Value.int .u8 0, Value.int .u8 0, Value.int .u8 0, Value.int .u8 0, Value.int .u8 0, Value.int .u8 0, Value.int .u8 0, Value.int .u8 0, Value.int .u8 0, Value.int .u8 0, Value.int .u8 0, Value.int .u8 0, Value.int .u8 0, Value.int .u8 0, Value.int .u8 0, Value.int .u8 0, Value.int .u8 0, Value.int .u8 0, Value.int .u8 0, Value.int .u8 0, Value.int .u8 0, Value.int .u8 0, Value.int .u8 0, Value.int .u8 0, Value.int .u8 0, Value.int .u8 0] 35
  have hbA : Below w.heap.size w (w.alloc (.cells #[Value.int .u8 0, Value.int .u8 0, Value.int .u8 0, Value.int .u8 0, Value.int .u8 0, Value.int .u8 0, Value.int .u8 0, Value.int .u8 0, Value.int .u8 0, Value.int .u8 0, Value.int .u8 0, Value.int .u8 0, Value.int .u8 0, Value.int .u8 0, Value.int .u8 0, Value.int .u8 0, Value.int .u8 0, Value.int .u8 0, Value.int .u8 0, Value.int .u8 0, Value.int .u8 0, Value.int .u8 0, Value.int .u8 0, Value.int .u8 0, Value.int .u8 0, Value.int .u8 0, Value.int .u8 0, Value.int .u8 0, Value.int .u8 0, Value.int .u8 0, Value.int .u8 0, Value.int .u8 0] 35)) := Below.alloc (Below.refl _ _) (Nat.le_refl _) _
  rcases Nat.lt_or_ge m 2 with hm2 | hm2
  · rcases Nat.eq_zero_or_pos m with h0 | h0
    · obtain rfl := h0
      obtain rfl := List.eq_nil_of_length_eq_zero hl
      have HT : Hid ((topH []).1 = z32) := Lib.hid (by rw [topH_nil]; rfl)
      have hz : (hrow z32).size = 32 := by rfl
      have hzone := hrow_one z32
      go_enter Tryd.func76, Tryd.ntmps76
      go_upto_region 1 with fail
      refine wp_nameE _ (fun W1 hX => ?_)
      have y9 : W1.heap[w.heap.size]? = some (.cells #[Value.int .u8 0, Value.int .u8 0, Value.int .u8 0, Value.int .u8 0, Value.int .u8 0, Value.int .u8 0, Value.int .u8 0, Value.int .u8 0, Value.int .u8 0, Value.int .u8 0, Value.int .u8 0, Value.int .u8 0, Value.int .u8 0, Value.int .u8 0, Value.int .u8 0, Value.int .u8 0, Value.int .u8 0, Value.int .u8 0, Value.int .u8 0, Value.int .u8 0, Value.int .u8 0, Value.int .u8 0, Value.int .u8 0, Value.int .u8 0, Value.int .u8 0, Value.int .u8 0, Value.int .u8 0, Value.int .u8 0, Value.int .u8 0, Value.int .u8 0, Value.int .u8 0, Value.int .u8 0] 35 (0, 0)) := by rw [hX]; exact g9
      have hbel : Below w.heap.size w W1 := by rw [hX]; exact hbA
      clear hX g9 hbA
      have hy9 : w.heap.size < W1.heap.size := (Array.getElem?_eq_some_iff.1 y9).1
      go_wp2_with (refine wpList_storeRowTo (Z := hrow z32) rfl (.tmp 2) (.tmp 8) 35 rfl (by rw [hz]; kernel_rfl) rfl (by rfl) y9 (by rw [hz]; rfl) hzone ?_)
      refine bodyPost_ret (v := .agg (hrow z32)) ?_ rfl ?_
      · simp [results, Tryd.results76, asAddr]
        exact run_loadVar_row _ _ 35 35 _ (0, 0) _ (setRow_heap _ _ _ _ _ _ y9) Tryd.underlying35 rfl (by rw [hz]; kernel_rfl)
      exact ⟨by rw [HT.out], below_setRow hbel (Nat.le_refl _) _⟩
    · obtain rfl : m = 1 := by omega
      obtain ⟨q, rfl⟩ := List.length_eq_one_iff.1 hl
      have HT : Hid ((topH [q]).1 = q.1) := Lib.hid (by rw [topH_one])
      have hq : (hrow q.1).size = 32 := by rw [hrow_size]; exact q.2
      have hqone := hrow_one q.1
      have hrB := hr.below hbA
      obtain ⟨b, off, rfl, hb, hrg⟩ := hs_at hrB (k := 0) (by simp)
      simp only [Nat.zero_mul, Nat.add_zero, List.getElem_cons_zero] at hrg
      have hqi : (Tryd.prog.info? 35).map (·.size) = some q.cells.length := by rw [H32.cells_len]; kernel_rfl
      go_enter Tryd.func76, Tryd.ntmps76
      go_upto_region 1 with fail
      refine wp_nameE _ (fun W1 hX => ?_)
      have y9 : W1.heap[w.heap.size]? = some (.cells #[Value.int .u8 0, Value.int .u8 0, Value.int .u8 0, Value.int .u8 0, Value.int .u8 0, Value.int .u8 0, Value.int .u8 0, Value.int .u8 0, Value.int .u8 0, Value.int .u8 0, Value.int .u8 0, Value.int .u8 0, Value.int .u8 0, Value.int .u8 0, Value.int .u8 0, Value.int .u8 0, Value.int .u8 0, Value.int .u8 0, Value.int .u8 0, Value.int .u8 0, Value.int .u8 0, Value.int .u8 0, Value.int .u8 0, Value.int .u8 0, Value.int .u8 0, Value.int .u8 0, Value.int .u8 0, Value.int .u8 0, Value.int .u8 0, Value.int .u8 0, Value.int .u8 0, Value.int .u8 0] 35 (0, 0)) := by rw [hX]; exact g9
      have hrg : W1.rangeAt b off q.cells := by rw [hX]; exact hrg
      have hbel : Below w.heap.size w W1 := by rw [hX]; exact hbA
      clear hX g9 hbA
      have hy9 : w.heap.size < W1.heap.size := (Array.getElem?_eq_some_iff.1 y9).1
      go_wp2_with (first | (refine wpList_load_mid rfl 35 (.tmp 12) rfl b off rfl q.cells _ hrg Tryd.underlying35 rfl hqi ?_; rw [H32.row]) | (refine wpList_storeRowTo (Z := hrow q.1) rfl (.tmp 2) (.tmp 13) 35 rfl (by rw [hq]; kernel_rfl) rfl (by rfl) y9 (by rw [hq]; rfl) hqone ?_))
      refine bodyPost_ret (v := .agg (hrow q.1)) ?_ rfl ?_
      · simp [results, Tryd.results76, asAddr]
        exact run_loadVar_row _ _ 35 35 _ (0, 0) _ (setRow_heap _ _ _ _ _ _ y9) Tryd.underlying35 rfl (by rw [hq]; kernel_rfl)
      exact ⟨by rw [HT.out], below_setRow hbel (Nat.le_refl _) _⟩
  · have d0 : ((m : Int) == 0) = false := beq_eq_false_iff_ne.2 (by omega)
    have d1 : ((m : Int) == 1) = false := beq_eq_false_iff_ne.2 (by omega)
    have hr1 := hs_take hr (halfN l.length)
    obtain ⟨b, off, rfl, hb, _⟩ := hs_at hr (k := 0) (by omega)
    have hr2 := hs_drop hr (halfN l.length)
    have HT := topH_two (l := l) (by omega)
    have CH := fun W : World => half_any m W hm2 (by omega)
    have hlt := halfN_lt hm2
    have hpos := halfN_pos m
    rw [hl] at hr1 hr2 HT
    have IH1 := fun W => ih (halfN m) hlt (l.take (halfN m)) (some ⟨b, off, none⟩) cap W (by rw [List.length_take]; omega) (by omega) (by omega) hcm
    have IH2 := fun W => ih (m - halfN m) (by omega) (l.drop (halfN m)) (some ⟨b, off + halfN m * 32, none⟩) (cap - halfN m) W (by rw [List.length_drop]; omega) (by omega) (by omega) (by omega)
    obtain ⟨h, hh⟩ : ∃ h, halfN m = h := ⟨_, rfl⟩
    simp only [hh] at hr1 hr2 HT CH hlt hpos IH1 IH2
    obtain ⟨T1, hT1⟩ : ∃ T, topH (l.take h) = T := ⟨_, rfl⟩
    obtain ⟨T2, hT2⟩ : ∃ T, topH (l.drop h) = T := ⟨_, rfl⟩
    simp only [hT1] at HT IH1
    simp only [hT2] at HT IH2
    have HT : Hid ((topH l).1 = nodeF T1.1 T2.1) := Lib.hid (by rw [HT]; rfl)
    clear hh hT1 hT2 ih
    have n1 : (0 : Int) ≤ (h : Int) := by omega
    have n2 : (h : Int) ≤ (cap : Int) := by omega
    have n3 : (h : Int) ≤ (m : Int) := by omega
    have n4 : (m : Int) ≤ (cap : Int) := by omega
    have n5 : ((h : Nat) : Int).toNat = h := by omega
    have n6 : h ≤ cap := by omega
    have n7 : h ≤ m := by omega
    have hr1 := hr1.below hbA
    have hr2 := hr2.below hbA
    have hW := hW.below hbA
    go_enter Tryd.func76, Tryd.ntmps76
    go_upto_region 1 with fail
    refine wp_nameE _ (fun W1 hX => ?_)
    have y9 : W1.heap[w.heap.size]? = some (.cells #[Value.int .u8 0, Value.int .u8 0, Value.int .u8 0, Value.int .u8 0, Value.int .u8 0, Value.int .u8 0, Value.int .u8 0, Value.int .u8 0, Value.int .u8 0, Value.int .u8 0, Value.int .u8 0, Value.int .u8 0, Value.int .u8 0, Value.int .u8 0, Value.int .u8 0, Value.int .u8 0, Value.int .u8 0, Value.int .u8 0, Value.int .u8 0, Value.int .u8 0, Value.int .u8 0, Value.int .u8 0, Value.int .u8 0, Value.int .u8 0, Value.int .u8 0, Value.int .u8 0, Value.int .u8 0, Value.int .u8 0, Value.int .u8 0, Value.int .u8 0, Value.int .u8 0, Value.int .u8 0] 35 (0, 0)) := by rw [hX]; exact g9
    have hr1 : RowAt W1 (some ⟨b, off, none⟩) ((l.take h).flatMap H32.cells) := by rw [hX]; exact hr1
    have hr2 : RowAt W1 (some ⟨b, off + h * 32, none⟩) ((l.drop h).flatMap H32.cells) := by rw [hX]; exact hr2
    have hW : SW W1 := by rw [hX]; exact hW
    have hbel : Below w.heap.size w W1 := by rw [hX]; exact hbA
    clear hX g9 hbA
    have hy9 : w.heap.size < W1.heap.size := (Array.getElem?_eq_some_iff.1 y9).1
    go_upto_region 7 with (go_at_call 97; refine (CH _).mono ?_; rintro e w2 ⟨rfl, hb2⟩)
    have y9 := cells_of y9 hb2 hy9
    have hbel := hbel.trans (hb2.mono hbel.size)
    have hr1 := hr1.below hb2
    have hr2 := hr2.below hb2
    have hW := hW.below hb2
    have hy9 : w.heap.size < w2.heap.size := (Array.getElem?_eq_some_iff.1 y9).1
    clear hb2 CH
    refine wp_region_facts_tail 9 rfl [Fact.eq (.slice (some ⟨b, off, none⟩) m cap), Fact.eq (.int .i64 h), Fact.eq (.slice (some ⟨b, off, none⟩) h cap), Fact.eq (.agg (hrow T1.1)), Fact.eq (.slice (some ⟨b, off, none⟩) m cap), Fact.eq (.int .i64 h), Fact.eq (.slice (some ⟨b, off + h * 32, none⟩) (m - h) (cap - h)), Fact.eq (.agg (hrow T2.1)), Fact.eq (.agg (hrow (nodeF T1.1 T2.1)))] (by kernel_rfl) (by kernel_rfl) (by kernel_rfl) (by kernel_rfl) (by kernel_rfl) (fun x => by simp only [List.take_succ_cons, List.take_zero, fillFrom, Act.put, List.setIfInBounds_toArray, List.set_cons_succ, List.set_cons_zero]; rfl) ?_ ?_
    · refine ⟨?_, ?_, ?_, ?_, ?_, ?_, ?_, ?_, ?_, trivial⟩
      · intro x w' hbw hd
        clear hd
        go_wp2_with fail
        exact frPost_mk rfl (by repeat (first | assumption | exact Below.refl _ _ | refine bch ?_ (by assumption) | refine Below.alloc ?_ (by simp) _)) rfl
      · intro x w' hbw hd
        clear hd
        go_wp2_with fail
        exact frPost_mk rfl (by repeat (first | assumption | exact Below.refl _ _ | refine bch ?_ (by assumption) | refine Below.alloc ?_ (by simp) _)) rfl
      · intro x w' hbw hd
        have d0 : x 0 = .slice (some ⟨b, off, none⟩) m cap := hd 0 rfl
        have d1 : x 1 = .int .i64 h := hd 1 rfl
        clear hd
        go_wp2_with fail
        exact frPost_mk rfl (by repeat (first | assumption | exact Below.refl _ _ | refine bch ?_ (by assumption) | refine Below.alloc ?_ (by simp) _)) rfl
      · intro x w' hbw hd
        have d2 : x 2 = .slice (some ⟨b, off, none⟩) h cap := hd 2 rfl
        clear hd
        have CC := IH1 w' (hr1.below hbw) (hW.below hbw)
        go_wp2_with (first | (go_at_call 76; refine (CC).mono ?_; rintro e wx ⟨rfl, hbx⟩))
        exact frPost_mk rfl (by repeat (first | assumption | exact Below.refl _ _ | refine bch ?_ (by assumption) | refine Below.alloc ?_ (by simp) _)) rfl
      · intro x w' hbw hd
        clear hd
        go_wp2_with fail
        exact frPost_mk rfl (by repeat (first | assumption | exact Below.refl _ _ | refine bch ?_ (by assumption) | refine Below.alloc ?_ (by simp) _)) rfl
      · intro x w' hbw hd
        clear hd
        go_wp2_with fail
        exact frPost_mk rfl (by repeat (first | assumption | exact Below.refl _ _ | refine bch ?_ (by assumption) | refine Below.alloc ?_ (by simp) _)) rfl
      · intro x w' hbw hd
        have d4 : x 4 = .slice (some ⟨b, off, none⟩) m cap := hd 4 rfl
        have d5 : x 5 = .int .i64 h := hd 5 rfl
        clear hd
        go_wp2_with fail
        exact frPost_mk rfl (by repeat (first | assumption | exact Below.refl _ _ | refine bch ?_ (by assumption) | refine Below.alloc ?_ (by simp) _)) rfl
      · intro x w' hbw hd
        have d6 : x 6 = .slice (some ⟨b, off + h * 32, none⟩) (m - h) (cap - h) := hd 6 rfl
        clear hd
        have CC := IH2 w' (hr2.below hbw) (hW.below hbw)
        go_wp2_with (first | (go_at_call 76; refine (CC).mono ?_; rintro e wx ⟨rfl, hbx⟩))
        exact frPost_mk rfl (by repeat (first | assumption | exact Below.refl _ _ | refine bch ?_ (by assumption) | refine Below.alloc ?_ (by simp) _)) rfl
      · intro x w' hbw hd
        have d3 : x 3 = .agg (hrow T1.1) := hd 3 rfl
        have d7 : x 7 = .agg (hrow T2.1) := hd 7 rfl
        clear hd
        have CC := node_any T1.1 T2.1 w' (hW.below hbw) T1.2 T2.2
        go_wp2_with (first | (go_at_call 98; refine (CC).mono ?_; rintro e wx ⟨rfl, hbx⟩))
        exact frPost_mk rfl (by repeat (first | assumption | exact Below.refl _ _ | refine bch ?_ (by assumption) | refine Below.alloc ?_ (by simp) _)) rfl
    · intro x w' hbw hall
      have hf : x 8 = .agg (hrow (nodeF T1.1 T2.1)) := hall 8 (by decide)
      clear hall
      simp only [hf, List.drop_succ_cons, List.drop_zero]
      have hl := nodeF_len T1.1 T2.1
      have hsz : (hrow (nodeF T1.1 T2.1)).size = 32 := by rw [hrow_size]; exact hl
      have hone := hrow_one (nodeF T1.1 T2.1)
      have y9 := cells_of y9 hbw hy9
      have hbel := hbel.trans (hbw.mono hbel.size)
      go_wp2_with (refine wpList_storeRowTo rfl (.tmp 2) (.tmp 25) 35 rfl (by rw [hsz]; kernel_rfl) rfl rfl y9 (by rw [hsz]; rfl) hone ?_)
      refine bodyPost_ret (v := .agg (hrow (nodeF T1.1 T2.1))) ?_ rfl ?_
      · simp [results, Tryd.results76, asAddr]
        exact run_loadVar_row _ _ 35 35 _ (0, 0) _ (setRow_heap _ _ _ _ _ _ y9) Tryd.underlying35 rfl (by rw [hsz]; kernel_rfl)
      exact ⟨by rw [HT.out], below_setRow hbel (Nat.le_refl _) _⟩
end Go.Proofs.YtpledhipdiephaaDoor
