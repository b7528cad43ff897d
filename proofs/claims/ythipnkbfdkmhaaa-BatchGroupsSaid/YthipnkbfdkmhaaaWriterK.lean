/- A Writer of package wire: what each call keeps: every block but its own and rows of bytes. -/
import Derived.Test.YthipnkbfdkmhaaaGD
import Derived.Test.YthipnkbfdkmhaaaWriterH
import Derived.Laws.IdiomStrings
import Derived.Lib.Walk
import Derived.WalkKit
import Derived.ProofKit
import Derived.Handy
import Derived.Below
import Derived.BigQuiet
import Derived.Lib.Hide
import Derived.IntWalk
import Derived.Outline
import Derived.WalkLawsBesides
import Derived.WalkSpells
namespace Go.Proofs.Ythipnkbfdkmhaaa
open Go.RowKit
attribute [local go_sem] strV
structure KW (b : Nat) (w w' : World) : Prop where
  size : w.heap.size ≤ w'.heap.size
  keep : ∀ k, k < w.heap.size → k ≠ b → (∀ cur fz, w.heap[k]? ≠ some (.cells cur 5 fz)) → w'.heap[k]? = w.heap[k]?
theorem KW.trans {b : Nat} {w w1 w2 : World} (h : KW b w w1) (g : KW b w1 w2) : KW b w w2 :=
  ⟨Nat.le_trans h.size g.size, fun k hk hne hty => (g.keep k (Nat.lt_of_lt_of_le hk h.size) hne (by rw [h.keep k hk hne hty]; exact hty)).trans (h.keep k hk hne hty)⟩
theorem KW.of {b : Nat} {w w' : World} (h : Below w.heap.size w w') : KW b w w' := ⟨h.size, fun k hk _ _ => h.block k hk⟩
theorem KW.setCell {b : Nat} {w w1 : World} (h : KW b w w1) (o : Nat) (v : Value) : KW b w (w1.setCell ⟨b, o, none⟩ v) :=
  ⟨by rw [World.size_setCell]; exact h.size, fun k hk hne hty => by
    show (w1.heap.modify b _)[k]? = _
    rw [Array.getElem?_modify, if_neg (fun e => hne e.symm)]; exact h.keep k hk hne hty⟩
theorem copy_k (B b : Nat) (w : World) (l : List UInt8) (err : Int) (h : WAt B b w l err) :
    Calls Try.prog 134 #[.pointer (some ⟨b, 0, none⟩)] w fun e w' => e = .returned (.tuple #[]) ∧ Below B w w' ∧ w.heap.size = w'.heap.size ∧ KW b w w' ∧
      B ≤ b ∧ ∃ v, w'.heap[b]? = some (.cells #[.pointer (some ⟨b, 0, none⟩), v, .int .i64 err] 129 (0, 0)) ∧ w'.ownsRow B 5 1 v l.length (l.map bv) ∧ v.ownBlock ≠ some b := by
  obtain ⟨hB, p, v, hb, hp, hown, hne⟩ := h
  have c0 : w.cell? ⟨b, 0, none⟩ = some p := cell_heap hb 0
  rcases hp with rfl | rfl
  · refine (copy_fresh b w c0 (by unfold World.shape?; rw [hb]; rfl) (frozen_heap hb 0)).mono ?_
    rintro e w' ⟨rfl, rfl⟩
    refine ⟨rfl, (Below.refl _ _).setCell (p := ⟨b, 0, none⟩) hB _, by simp, (KW.of (Below.refl _ _)).setCell 0 _, hB, v, ?_, ownsRow_setCell_other hown (a := ⟨b, 0, none⟩) hne _, hne⟩
    simp [World.setCell, Array.getElem?_modify, hb]
  · refine (copy_used b w c0).mono ?_
    rintro e w' ⟨rfl, rfl⟩
    exact ⟨rfl, Below.refl _ _, rfl, KW.of (Below.refl _ _), hB, v, hb, hown, hne⟩
set_option maxRecDepth 100000 in
set_option maxHeartbeats 1600000 in
theorem wstr_k (B b : Nat) (w : World) (l : List UInt8) (err : Int) (s : ByteArray) (h : WAt B b w l err) (hBw : B ≤ w.heap.size) (hlen : l.length + s.size ≤ 140737488355328) :
    Calls Try.prog 128 #[.pointer (some ⟨b, 0, none⟩), .string s] w fun e w' => e = .returned (.tuple #[.int .i64 s.size, .nilIface]) ∧ WAt B b w' (l ++ s.data.toList) err ∧ Below B w w' ∧ KW b w w' := by
  obtain ⟨i0, hi, hz0, hz1, hz2⟩ := info_parts Try.infoByteW
  go_enter Try.func128, Try.ntmps128
  go_wp2_with (go_at_call 134; refine (copy_k B b _ l err h).mono ?_)
  rintro e w1 ⟨rfl, hb1, hsz1, hk1, hB, v, hbk, hown, hne⟩
  have c0 : w1.cell? ⟨b, 0, none⟩ = some (.pointer (some ⟨b, 0, none⟩)) := cell_heap hbk 0
  have c1 : w1.cell? ⟨b, 1, none⟩ = some v := cell_heap hbk 1
  go_wp2_with (at_builtin; refine Lib.wpList_append_own_string _ rfl _ _ 125 9 rfl B 5 i0 Try.underlying125 Try.underlying9 hi hz0 hz1 hz2 _ _ _ rfl hown s rfl ?c3 ?c4 ?c5 ?_)
  case c3 => unfold maxLen; omega
  case c4 => omega
  case c5 => omega
  intro v' w2 hown' hgrow _
  have hlt : b < w1.heap.size := (Array.getElem?_eq_some_iff.1 hbk).1
  have hb2 : w2.heap[b]? = some (.cells #[.pointer (some ⟨b, 0, none⟩), v, .int .i64 err] 129 (0, 0)) := by
    rw [hgrow.block b hlt (fun e => hne e.symm)]; exact hbk
  have d0 : w2.cell? ⟨b, 0, none⟩ = some (.pointer (some ⟨b, 0, none⟩)) := cell_heap hb2 0
  have d1 : w2.cell? ⟨b, 1, none⟩ = some v := cell_heap hb2 1
  have f1 : w2.frozen? ⟨b, 1, none⟩ = false := frozen_heap hb2 1
  have hne' : v'.ownBlock ≠ some b := by
    rcases hown'.2 with ⟨rfl, _⟩ | ⟨g, cap, cur, rfl, _, hg, _⟩
    · simp [Value.ownBlock]
    · intro e
      simp only [Value.ownBlock, Option.some.injEq] at e
      subst e
      rw [hb2] at hg
      simp at hg
  obtain ⟨ao, n', cap, rfl⟩ : ∃ ao n' cap, v' = .slice ao n' cap := by
    rcases hown'.2 with ⟨hv, _⟩ | ⟨g, cap, cur, hv, _⟩
    · exact ⟨_, _, _, hv⟩
    · exact ⟨_, _, _, hv⟩
  go_wp2
  go_returns
  have hk2 : KW b w1 w2 := ⟨hgrow.size, fun k hk hkb hty => hgrow.block k hk (fun e => by
    rcases hown.2 with ⟨rfl, _⟩ | ⟨g, cap, cur, rfl, _, hg, _⟩
    · simp [Value.ownBlock] at e
    · simp only [Value.ownBlock, Option.some.injEq] at e
      subst e
      exact hty _ _ hg)⟩
  refine ⟨rfl, ⟨hB, _, _, ?_, .inr rfl, ?_, hne'⟩, ?_, (hk1.trans hk2).setCell 1 _⟩
  · simp only [World.setCell, Array.getElem?_modify, hb2]
    simp
    first | done | rfl
  · have := ownsRow_setCell_other hown' (a := ⟨b, 1, none⟩) hne' (.slice ao n' cap)
    rw [List.length_append, List.map_append, str_len]
    exact this
  · exact (hb1.grown hgrow (by omega) (fun k hk => (hown.lt k hk).1)).setCell (p := ⟨b, 1, none⟩) hB _
set_option maxRecDepth 100000 in
set_option maxHeartbeats 1600000 in
theorem wadd_k (B b : Nat) (w : World) (l : List UInt8) (s : ByteArray) (h : WAt B b w l 0) (hBw : B ≤ w.heap.size) (hlen : l.length + s.size ≤ 140737488355328) :
    Calls Try.prog 114 #[.pointer (some ⟨b, 0, none⟩), .string s] w fun e w' => e = .returned (.tuple #[]) ∧ WAt B b w' (l ++ s.data.toList) 0 ∧ Below B w w' ∧ KW b w w' := by
  have he := h.err
  go_enter Try.func114, Try.ntmps114
  go_wp2_with (go_at_call 128; refine (wstr_k B b _ l 0 s h hBw hlen).mono ?_; rintro e w1 ⟨rfl, h1, hb1, hk1⟩)
  go_returns
  exact ⟨rfl, h1, hb1, hk1⟩
set_option maxRecDepth 100000 in
set_option maxHeartbeats 1600000 in
theorem wnum_k (B b : Nat) (w : World) (l : List UInt8) (x : Nat) (h : WAt B b w l 0) (hBw : B ≤ w.heap.size) (hx : x ≤ 72057594037927935) (hlen : l.length ≤ 1000000) :
    Calls Try.prog 76 #[.pointer (some ⟨b, 0, none⟩), .int .i64 (x : Int)] w fun e w' => e = .returned (.tuple #[]) ∧ WAt B b w' (l ++ putL x) 0 ∧ Below B w w' ∧ KW b w w' := by
  have henc : encB (x : Int) = true := by unfold encB; exact decide_eq_true (by omega)
  have hpos : 0 < (putL (x : Int)).length := by unfold putL; rw [henc, if_pos rfl]; exact grp_pos _ _
  have hle : (putL (x : Int)).length ≤ 8 := by unfold putL; rw [henc, if_pos rfl]; exact grp_le _ _
  obtain ⟨q, hq⟩ : ∃ q : ByteArray, q = ⟨(putL (x : Int)).toArray⟩ := ⟨_, rfl⟩
  have hql : q.data.toList = putL (x : Int) := by rw [hq]
  have hsv : strV (putL (x : Int)) = .string q := by rw [hq]; rfl
  have hqs : q.size = (putL (x : Int)).length := by rw [← str_len, hql]
  have hne := str_ne'' (show 0 < q.size by omega)
  have hne2 := str_ne' (show 0 < q.size by omega)
  rw [← hql]
  clear hq hql henc
  go_enter Try.func76, Try.ntmps76
  go_wp2_with (first | (go_at_call 113; refine (put_any _ _).mono ?_; rintro e w1 ⟨rfl, hb1⟩; rw [hsv]) | (go_at_call 114; refine (wadd_k B b _ l q (h.below hb1) (Nat.le_trans hBw hb1.size) (by omega)).mono ?_; rintro e w2 ⟨rfl, h2, hb2, hk2⟩))
  go_returns
  exact ⟨rfl, h2, (hb1.mono hBw).trans hb2, (KW.of hb1).trans hk2⟩
set_option maxRecDepth 100000 in
set_option maxHeartbeats 1600000 in
theorem wtext_k (B b : Nat) (w : World) (l : List UInt8) (s : ByteArray) (h : WAt B b w l 0) (hBw : B ≤ w.heap.size) (hs : s.size ≤ 1000000) (hlen : l.length ≤ 900000) :
    Calls Try.prog 77 #[.pointer (some ⟨b, 0, none⟩), .string s] w fun e w' => e = .returned (.tuple #[]) ∧ WAt B b w' (l ++ putL (s.size : Int) ++ s.data.toList) 0 ∧ Below B w w' ∧ KW b w w' := by
  have hle : (putL (s.size : Int)).length ≤ 8 := by
    unfold putL
    split
    · exact grp_le _ _
    · simp
  go_enter Try.func77, Try.ntmps77
  go_wp2_with (first | (go_at_call 76; refine (wnum_k B b _ l s.size h hBw (by omega) (by omega)).mono ?_; rintro e w1 ⟨rfl, h1, hb1, hk1⟩) | (go_at_call 114; refine (wadd_k B b _ _ s h1 (Nat.le_trans hBw hb1.size) (by rw [List.length_append]; omega)).mono ?_; rintro e w2 ⟨rfl, h2, hb2, hk2⟩))
  go_returns
  exact ⟨rfl, h2, hb1.trans hb2, hk1.trans hk2⟩
set_option maxRecDepth 100000 in
set_option maxHeartbeats 1600000 in
theorem wnum_badk (B b : Nat) (w : World) (l : List UInt8) (v : Int) (h : WAt B b w l 0) (hB : B ≤ w.heap.size) (hv : encB v = false) :
    Calls Try.prog 76 #[.pointer (some ⟨b, 0, none⟩), .int .i64 v] w fun e w' => e = .returned (.tuple #[]) ∧ WAt B b w' l 1 ∧ Below B w w' ∧ KW b w w' := by
  have hsv : strV (putL v) = .string ⟨#[]⟩ := by unfold putL; rw [hv]; rfl
  have hBb : B ≤ b := h.1
  go_enter Try.func76, Try.ntmps76
  go_wp2_with (first | (go_at_call 113; refine (put_any _ _).mono ?_; rintro e w1 ⟨rfl, hb1⟩; rw [hsv]; have h1 := h.below hb1; have d2 := h1.err; have e2 := h1.fr 2) | (go_at_call 114; refine (wadd_err B b _ l 1 _ (h1.setErr 1) rfl).mono ?_; rintro e w2 ⟨rfl, hw2⟩; obtain rfl : _ = w2 := hw2.symm))
  go_returns
  exact ⟨rfl, h1.setErr 1, (hb1.mono hB).setCell (p := ⟨b, 2, none⟩) hBb _, (KW.of hb1).setCell 2 _⟩
set_option maxRecDepth 100000 in
set_option maxHeartbeats 1600000 in
theorem whash_k (B b : Nat) (w : World) (l q : List UInt8) (hq : q.length = 32) (hBw : B ≤ w.heap.size) (h : WAt B b w l 0) (hlen : l.length + 32 ≤ 140737488355328) :
    Calls Try.prog 92 #[.pointer (some ⟨b, 0, none⟩), .agg (hrow q)] w fun e w' => e = .returned (.tuple #[]) ∧ WAt B b w' (l ++ q) 0 ∧ Below B w w' ∧ KW b w w' := by
  have hbA : Below w.heap.size w (w.alloc (.cells (hrow q) 23)) := Below.alloc (Below.refl _ _) (by simp) _
  have hg : (w.alloc (.cells (hrow q) 23)).heap[w.heap.size]? = some (.cells (hrow q) 23 (0, 0)) := by
    show (w.heap.push _)[w.heap.size]? = _
    simp
  have hcv : (convert 125 9 (.slice (some ⟨w.heap.size, 0, none⟩) 32 32)).run Try.prog (w.alloc (.cells (hrow q) 23)) = .ok (.string ⟨q.toArray⟩) (w.alloc (.cells (hrow q) 23)) := by
    have := run_convert_bytes_back (P := Try.prog) (w.alloc (.cells (hrow q) 23)) 125 9 5 ⟨w.heap.size, 0, none⟩ 32 q Try.underlying125 Try.underlying5 Try.underlying9 (fun j hj => by
      have hadd : (⟨w.heap.size, 0, none⟩ : Addr).add j = ⟨w.heap.size, j, none⟩ := by unfold Addr.add; by_cases h : j = 0 <;> simp [h]
      rw [hadd, cell_heap hg]; simp [hrow, Lib.byteCells, List.getElem?_eq_getElem hj])
    rwa [hq] at this
  go_enter Try.func92, Try.ntmps92
  go_wp2_with (go_at_call 114; refine (wadd_k B b _ l ⟨q.toArray⟩ (h.below hbA) (Nat.le_trans hBw hbA.size) (by rw [show (⟨q.toArray⟩ : ByteArray).size = q.length from rfl, hq]; exact hlen)).mono ?_; rintro e w2 ⟨rfl, h2, hb2, hk2⟩)
  go_returns
  exact ⟨rfl, by simpa using h2, (hbA.mono hBw).trans hb2, (KW.of hbA).trans hk2⟩
set_option maxRecDepth 100000 in
set_option maxHeartbeats 1600000 in
theorem whash_errk (B b : Nat) (w : World) (l q : List UInt8) (hq : q.length = 32) (err : Int) (h : WAt B b w l err) (he : (err == 0) = false) :
    Calls Try.prog 92 #[.pointer (some ⟨b, 0, none⟩), .agg (hrow q)] w fun e w' => e = .returned (.tuple #[]) ∧ WAt B b w' l err ∧ Below w.heap.size w w' := by
  have hbA : Below w.heap.size w (w.alloc (.cells (hrow q) 23)) := Below.alloc (Below.refl _ _) (by simp) _
  have hg : (w.alloc (.cells (hrow q) 23)).heap[w.heap.size]? = some (.cells (hrow q) 23 (0, 0)) := by
    show (w.heap.push _)[w.heap.size]? = _
    simp
  have hcv : (convert 125 9 (.slice (some ⟨w.heap.size, 0, none⟩) 32 32)).run Try.prog (w.alloc (.cells (hrow q) 23)) = .ok (.string ⟨q.toArray⟩) (w.alloc (.cells (hrow q) 23)) := by
    have := run_convert_bytes_back (P := Try.prog) (w.alloc (.cells (hrow q) 23)) 125 9 5 ⟨w.heap.size, 0, none⟩ 32 q Try.underlying125 Try.underlying5 Try.underlying9 (fun j hj => by
      have hadd : (⟨w.heap.size, 0, none⟩ : Addr).add j = ⟨w.heap.size, j, none⟩ := by unfold Addr.add; by_cases h : j = 0 <;> simp [h]
      rw [hadd, cell_heap hg]; simp [hrow, Lib.byteCells, List.getElem?_eq_getElem hj])
    rwa [hq] at this
  go_enter Try.func92, Try.ntmps92
  go_wp2_with (go_at_call 114; refine (wadd_err B b _ l err ⟨q.toArray⟩ (h.below hbA) he).mono ?_; rintro e w2 ⟨rfl, hw2⟩; obtain rfl : _ = w2 := hw2.symm)
  go_returns
  exact ⟨rfl, h.below hbA, hbA⟩
end Go.Proofs.Ythipnkbfdkmhaaa
