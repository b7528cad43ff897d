/- Packets out of bytes: an end. Packets out of bytes. A Writer of package wire: a hash. A Writer of package wire: what each call keeps: every block but its own and rows of bytes. Packets: which may be, when they are over. Packets in bytes: Write. Packets: when they are over, the law. -/
import Derived.Test.YtfikbaoiialfeaaDoorGD
import Derived.Test.YtfikbaoiialfeaaDoorGC
import Derived.Deep.MidRow
import Derived.Deep.Cut
import Derived.WalkKit
import Derived.ProofKit
import Derived.Handy
import Derived.Below
import Derived.BigQuiet
import Derived.Lib.Hide
import Derived.IntWalk
import Derived.Outline
import Derived.WalkLawsBesides
import Derived.WalkSpells
import Derived.Laws.IdiomStrings
import Derived.Laws.Tables
import Derived.Laws.Rows
import Derived.Laws.Cells
import Derived.Lib.Walk
namespace Go.Proofs.YtfikbaoiialfeaaDoor
open Go.RowKit
attribute [local go_sem] strV
set_option linter.unusedVariables false
/-- What reading an end answers: port, channel, the place behind it, the error. -/
def endG (s : ByteArray) (at_ err : Int) : ByteArray × Int × Int × Int :=
  let x := textG s at_ err 12
  let y := numG s x.2.1 x.2.2 0 999
  (x.1, y.1, y.2.1, y.2.2)
theorem row_one2 (p : ByteArray) (c : Int) : (#[.string p, .int .i64 c] : Array Value).all (·.oneCell') = true := by
  rw [Array.all_eq_true_iff_forall_mem]; intro v hv; simp at hv; rcases hv with rfl | rfl <;> rfl
theorem RAt.setRow {b g : Nat} {w : World} {s : ByteArray} {A E : Int} (h : RAt b w s A E) (hne : g ≠ b) (cs : Array Value) : RAt b (w.setRow g cs) s A E := by
  unfold RAt at h ⊢
  rw [setRow_other w g b cs (Ne.symm hne)]; exact h
end Go.Proofs.YtfikbaoiialfeaaDoor
namespace Go.Proofs.YtfikbaoiialfeaaDoor
open Go.RowKit
attribute [local go_sem] strV
set_option linter.unusedVariables false
structure PkG where
  sp : ByteArray
  sc : Int
  dp : ByteArray
  dc : Int
  sq : Int
  da : ByteArray
  th : Int
  ta : Int
  a : Int
  e : Int
/-- What reading a packet answers, the place behind it, the error. -/
def pkG (s : ByteArray) (at_ err : Int) : PkG :=
  let x1 := endG s at_ err
  let x2 := endG s x1.2.2.1 x1.2.2.2
  let x3 := numG s x2.2.2.1 x2.2.2.2 1 1099511627776
  let x4 := textG s x3.2.1 x3.2.2 200
  let x5 := numG s x4.2.1 x4.2.2 0 1099511627776
  let x6 := numG s x5.2.1 x5.2.2 0 1099511627776
  ⟨x1.1, x1.2.1, x2.1, x2.2.1, x3.1, x4.1, x5.1, x6.1, x6.2.1, x6.2.2⟩
theorem row_oth' (w : World) (g k j : Nat) (v : Value) (hne : j ≠ g) : (w.setCell ⟨g, k, none⟩ v).heap[j]? = w.heap[j]? := by
  show (w.heap.modify g _)[j]? = _
  rw [Array.getElem?_modify, if_neg (Ne.symm hne)]
theorem Kept.setFar {b g k : Nat} {w w1 : World} {v : Value} (h : Kept b w w1) (hg : w.heap.size ≤ g) : Kept b w (w1.setCell ⟨g, k, none⟩ v) :=
  ⟨h.os, h.tape, h.output, by rw [World.size_setCell]; exact h.size, fun j hj hne => (row_oth' w1 g k j v (by omega)).trans (h.block j hj hne)⟩
theorem Pk.row_one8 (sp : ByteArray) (sc : Int) (dp : ByteArray) (dc sq : Int) (da : ByteArray) (th ta : Int) : (#[.string sp, .int .i64 sc, .string dp, .int .i64 dc, .int .i64 sq, .string da, .int .i64 th, .int .i64 ta] : Array Value).all (·.oneCell') = true := by
  rw [Array.all_eq_true_iff_forall_mem]; intro v hv; simp at hv; rcases hv with rfl | rfl | rfl | rfl | rfl | rfl | rfl | rfl <;> rfl
end Go.Proofs.YtfikbaoiialfeaaDoor
namespace Go.Proofs.YtfikbaoiialfeaaDoor
open Go.RowKit
attribute [local go_sem] strV
set_option maxRecDepth 100000 in
set_option maxHeartbeats 1600000 in
theorem whash_ok (B b : Nat) (w : World) (l q : List UInt8) (hq : q.length = 32) (hBw : B ≤ w.heap.size) (h : WAt B b w l 0) (hlen : l.length + 32 ≤ 140737488355328) :
    Calls Tryd.prog 92 #[.pointer (some ⟨b, 0, none⟩), .agg (hrow q)] w fun e w' => e = .returned (.tuple #[]) ∧ WAt B b w' (l ++ q) 0 ∧ Below B w w' := by
  have hbA : Below w.heap.size w (w.alloc (.cells (hrow q) 25)) := Below.alloc (Below.refl _ _) (by simp) _
  have hg : (w.alloc (.cells (hrow q) 25)).heap[w.heap.size]? = some (.cells (hrow q) 25 (0, 0)) := by
    show (w.heap.push _)[w.heap.size]? = _
    simp
  have hcv : (convert 111 9 (.slice (some ⟨w.heap.size, 0, none⟩) 32 32)).run Tryd.prog (w.alloc (.cells (hrow q) 25)) = .ok (.string ⟨q.toArray⟩) (w.alloc (.cells (hrow q) 25)) := by
    have := run_convert_bytes_back (P := Tryd.prog) (w.alloc (.cells (hrow q) 25)) 111 9 5 ⟨w.heap.size, 0, none⟩ 32 q Tryd.underlying111 Tryd.underlying5 Tryd.underlying9 (fun j hj => by
      have hadd : (⟨w.heap.size, 0, none⟩ : Addr).add j = ⟨w.heap.size, j, none⟩ := by unfold Addr.add; by_cases h : j = 0 <;> simp [h]
      rw [hadd, cell_heap hg]; simp [hrow, Lib.byteCells, List.getElem?_eq_getElem hj])
    rwa [hq] at this
  go_enter Tryd.func92, Tryd.ntmps92
  go_wp2_with (go_at_call 114; refine (wadd_ok B b _ l ⟨q.toArray⟩ (h.below hbA) (Nat.le_trans hBw hbA.size) (by rw [show (⟨q.toArray⟩ : ByteArray).size = q.length from rfl, hq]; exact hlen)).mono ?_; rintro e w2 ⟨rfl, h2, hb2⟩)
  go_returns
  exact ⟨rfl, by simpa using h2, (hbA.mono hBw).trans hb2⟩
set_option maxRecDepth 100000 in
set_option maxHeartbeats 1600000 in
theorem whash_err (B b : Nat) (w : World) (l q : List UInt8) (hq : q.length = 32) (hBw : B ≤ w.heap.size) (err : Int) (h : WAt B b w l err) (he : (err == 0) = false) :
    Calls Tryd.prog 92 #[.pointer (some ⟨b, 0, none⟩), .agg (hrow q)] w fun e w' => e = .returned (.tuple #[]) ∧ WAt B b w' l err ∧ Below B w w' := by
  have hbA : Below w.heap.size w (w.alloc (.cells (hrow q) 25)) := Below.alloc (Below.refl _ _) (by simp) _
  have hg : (w.alloc (.cells (hrow q) 25)).heap[w.heap.size]? = some (.cells (hrow q) 25 (0, 0)) := by
    show (w.heap.push _)[w.heap.size]? = _
    simp
  have hcv : (convert 111 9 (.slice (some ⟨w.heap.size, 0, none⟩) 32 32)).run Tryd.prog (w.alloc (.cells (hrow q) 25)) = .ok (.string ⟨q.toArray⟩) (w.alloc (.cells (hrow q) 25)) := by
    have := run_convert_bytes_back (P := Tryd.prog) (w.alloc (.cells (hrow q) 25)) 111 9 5 ⟨w.heap.size, 0, none⟩ 32 q Tryd.underlying111 Tryd.underlying5 Tryd.underlying9 (fun j hj => by
      have hadd : (⟨w.heap.size, 0, none⟩ : Addr).add j = ⟨w.heap.size, j, none⟩ := by unfold Addr.add; by_cases h : j = 0 <;> simp [h]
      rw [hadd, cell_heap hg]; simp [hrow, Lib.byteCells, List.getElem?_eq_getElem hj])
    rwa [hq] at this
  go_enter Tryd.func92, Tryd.ntmps92
  go_wp2_with (go_at_call 114; refine (wadd_err B b _ l err ⟨q.toArray⟩ (h.below hbA) he).mono ?_; rintro e w2 ⟨rfl, hw2⟩; obtain rfl : _ = w2 := hw2.symm)
  go_returns
  exact ⟨rfl, h.below hbA, hbA.mono hBw⟩
end Go.Proofs.YtfikbaoiialfeaaDoor
namespace Go.Proofs.YtfikbaoiialfeaaDoor
open Go.RowKit
attribute [local go_sem] strV
structure KW (b : Nat) (w w' : World) : Prop where
  size : w.heap.size ≤ w'.heap.size
  keep : ∀ k, k < w.heap.size → k ≠ b → (∀ cur fz, w.heap[k]? ≠ some (.cells cur 5 fz)) → w'.heap[k]? = w.heap[k]?
theorem KW.trans {b : Nat} {w w1 w2 : World} (h : KW b w w1) (g : KW b w1 w2) : KW b w w2 :=
  ⟨Nat.le_trans h.size g.size, fun k hk hne hty => (g.keep k (Nat.lt_of_lt_of_le hk h.size) hne (by rw [h.keep k hk hne hty]; exact hty)).trans (h.keep k hk hne hty)⟩
theorem KW.of {b : Nat} {w w' : World} (h : Below w.heap.size w w') : KW b w w' := ⟨h.size, fun k hk _ _ => h.block k hk⟩
theorem KW.setCell {b : Nat} {w w1 : World} (h : KW b w w1) (o : Nat) (v : Value) : KW b w (w1.setCell ⟨b, o, none⟩ v) :=
  ⟨by rw [World.size_setCell]; exact h.size, fun k hk hne hty => by
    show (w1.heap.modify b _)[k]? = _
    rw [Array.getElem?_modify, if_neg (fun e => hne e.symm)]; exact h.keep k hk hne hty⟩
theorem copy_k (B b : Nat) (w : World) (l : List UInt8) (err : Int) (h : WAt B b w l err) :
    Calls Tryd.prog 126 #[.pointer (some ⟨b, 0, none⟩)] w fun e w' => e = .returned (.tuple #[]) ∧ Below B w w' ∧ w.heap.size = w'.heap.size ∧ KW b w w' ∧
      B ≤ b ∧ ∃ v, w'.heap[b]? = some (.cells #[.pointer (some ⟨b, 0, none⟩), v, .int .i64 err] 115 (0, 0)) ∧ w'.ownsRow B 5 1 v l.length (l.map bv) ∧ v.ownBlock ≠ some b := by
  obtain ⟨hB, p, v, hb, hp, hown, hne⟩ := h
  have c0 : w.cell? ⟨b, 0, none⟩ = some p := cell_heap hb 0
  rcases hp with rfl | rfl
  · refine (copy_fresh b w c0 (by unfold World.shape?; rw [hb]; rfl) (frozen_heap hb 0)).mono ?_
    rintro e w' ⟨rfl, rfl⟩
    refine ⟨rfl, (Below.refl _ _).setCell (p := ⟨b, 0, none⟩) hB _, by simp, (KW.of (Below.refl _ _)).setCell 0 _, hB, v, ?_, ownsRow_setCell_other hown (a := ⟨b, 0, none⟩) hne _, hne⟩
    simp [World.setCell, Array.getElem?_modify, hb]
  · refine (copy_used b w c0).mono ?_
    rintro e w' ⟨rfl, rfl⟩
    exact ⟨rfl, Below.refl _ _, rfl, KW.of (Below.refl _ _), hB, v, hb, hown, hne⟩
set_option maxRecDepth 100000 in
set_option maxHeartbeats 1600000 in
theorem wstr_k (B b : Nat) (w : World) (l : List UInt8) (err : Int) (s : ByteArray) (h : WAt B b w l err) (hBw : B ≤ w.heap.size) (hlen : l.length + s.size ≤ 140737488355328) :
    Calls Tryd.prog 122 #[.pointer (some ⟨b, 0, none⟩), .string s] w fun e w' => e = .returned (.tuple #[.int .i64 s.size, .nilIface]) ∧ WAt B b w' (l ++ s.data.toList) err ∧ Below B w w' ∧ KW b w w' := by
  obtain ⟨i0, hi, hz0, hz1, hz2⟩ := info_parts Tryd.infoByteW
  go_enter Tryd.func122, Tryd.ntmps122
  go_wp2_with (go_at_call 126; refine (copy_k B b _ l err h).mono ?_)
  rintro e w1 ⟨rfl, hb1, hsz1, hk1, hB, v, hbk, hown, hne⟩
  have c0 : w1.cell? ⟨b, 0, none⟩ = some (.pointer (some ⟨b, 0, none⟩)) := cell_heap hbk 0
  have c1 : w1.cell? ⟨b, 1, none⟩ = some v := cell_heap hbk 1
  go_wp2_with (at_builtin; refine Lib.wpList_append_own_string _ rfl _ _ 111 9 rfl B 5 i0 Tryd.underlying111 Tryd.underlying9 hi hz0 hz1 hz2 _ _ _ rfl hown s rfl ?c3 ?c4 ?c5 ?_)
  case c3 => unfold maxLen; omega
  case c4 => omega
  case c5 => omega
  intro v' w2 hown' hgrow _
  have hlt : b < w1.heap.size := (Array.getElem?_eq_some_iff.1 hbk).1
  have hb2 : w2.heap[b]? = some (.cells #[.pointer (some ⟨b, 0, none⟩), v, .int .i64 err] 115 (0, 0)) := by
    rw [hgrow.block b hlt (fun e => hne e.symm)]; exact hbk
  have d0 : w2.cell? ⟨b, 0, none⟩ = some (.pointer (some ⟨b, 0, none⟩)) := cell_heap hb2 0
  have d1 : w2.cell? ⟨b, 1, none⟩ = some v := cell_heap hb2 1
  have f1 : w2.frozen? ⟨b, 1, none⟩ = false := frozen_heap hb2 1
  have hne' : v'.ownBlock ≠ some b := by
    rcases hown'.2 with ⟨rfl, _⟩ | ⟨g, cap, cur, rfl, _, hg, _⟩
    · simp [Value.ownBlock]
    · intro e
      simp only [Value.ownBlock, Option.some.injEq] at e
      subst e
      rw [hb2] at hg
      simp at hg
  obtain ⟨ao, n', cap, rfl⟩ : ∃ ao n' cap, v' = .slice ao n' cap := by
    rcases hown'.2 with ⟨hv, _⟩ | ⟨g, cap, cur, hv, _⟩
    · exact ⟨_, _, _, hv⟩
    · exact ⟨_, _, _, hv⟩
  go_wp2
  go_returns
  have hk2 : KW b w1 w2 := ⟨hgrow.size, fun k hk hkb hty => hgrow.block k hk (fun e => by
    rcases hown.2 with ⟨rfl, _⟩ | ⟨g, cap, cur, rfl, _, hg, _⟩
    · simp [Value.ownBlock] at e
    · simp only [Value.ownBlock, Option.some.injEq] at e
      subst e
      exact hty _ _ hg)⟩
  refine ⟨rfl, ⟨hB, _, _, ?_, .inr rfl, ?_, hne'⟩, ?_, (hk1.trans hk2).setCell 1 _⟩
  · simp only [World.setCell, Array.getElem?_modify, hb2]
    simp
    first | done | rfl
  · have := ownsRow_setCell_other hown' (a := ⟨b, 1, none⟩) hne' (.slice ao n' cap)
    rw [List.length_append, List.map_append, str_len]
    exact this
  · exact (hb1.grown hgrow (by omega) (fun k hk => (hown.lt k hk).1)).setCell (p := ⟨b, 1, none⟩) hB _
set_option maxRecDepth 100000 in
set_option maxHeartbeats 1600000 in
theorem wadd_k (B b : Nat) (w : World) (l : List UInt8) (s : ByteArray) (h : WAt B b w l 0) (hBw : B ≤ w.heap.size) (hlen : l.length + s.size ≤ 140737488355328) :
    Calls Tryd.prog 114 #[.pointer (some ⟨b, 0, none⟩), .string s] w fun e w' => e = .returned (.tuple #[]) ∧ WAt B b w' (l ++ s.data.toList) 0 ∧ Below B w w' ∧ KW b w w' := by
  have he := h.err
  go_enter Tryd.func114, Tryd.ntmps114
  go_wp2_with (go_at_call 122; refine (wstr_k B b _ l 0 s h hBw hlen).mono ?_; rintro e w1 ⟨rfl, h1, hb1, hk1⟩)
  go_returns
  exact ⟨rfl, h1, hb1, hk1⟩
set_option maxRecDepth 100000 in
set_option maxHeartbeats 1600000 in
theorem wnum_k (B b : Nat) (w : World) (l : List UInt8) (x : Nat) (h : WAt B b w l 0) (hBw : B ≤ w.heap.size) (hx : x ≤ 72057594037927935) (hlen : l.length ≤ 1000000) :
    Calls Tryd.prog 90 #[.pointer (some ⟨b, 0, none⟩), .int .i64 (x : Int)] w fun e w' => e = .returned (.tuple #[]) ∧ WAt B b w' (l ++ putL x) 0 ∧ Below B w w' ∧ KW b w w' := by
  have henc : encB (x : Int) = true := by unfold encB; exact decide_eq_true (by omega)
  have hpos : 0 < (putL (x : Int)).length := by unfold putL; rw [henc, if_pos rfl]; exact grp_pos _ _
  have hle : (putL (x : Int)).length ≤ 8 := by unfold putL; rw [henc, if_pos rfl]; exact grp_le _ _
  obtain ⟨q, hq⟩ : ∃ q : ByteArray, q = ⟨(putL (x : Int)).toArray⟩ := ⟨_, rfl⟩
  have hql : q.data.toList = putL (x : Int) := by rw [hq]
  have hsv : strV (putL (x : Int)) = .string q := by rw [hq]; rfl
  have hqs : q.size = (putL (x : Int)).length := by rw [← str_len, hql]
  have hne := str_ne'' (show 0 < q.size by omega)
  have hne2 := str_ne' (show 0 < q.size by omega)
  rw [← hql]
  clear hq hql henc
  go_enter Tryd.func90, Tryd.ntmps90
  go_wp2_with (first | (go_at_call 113; refine (put_any _ _).mono ?_; rintro e w1 ⟨rfl, hb1⟩; rw [hsv]) | (go_at_call 114; refine (wadd_k B b _ l q (h.below hb1) (Nat.le_trans hBw hb1.size) (by omega)).mono ?_; rintro e w2 ⟨rfl, h2, hb2, hk2⟩))
  go_returns
  exact ⟨rfl, h2, (hb1.mono hBw).trans hb2, (KW.of hb1).trans hk2⟩
set_option maxRecDepth 100000 in
set_option maxHeartbeats 1600000 in
theorem wtext_k (B b : Nat) (w : World) (l : List UInt8) (s : ByteArray) (h : WAt B b w l 0) (hBw : B ≤ w.heap.size) (hs : s.size ≤ 1000000) (hlen : l.length ≤ 900000) :
    Calls Tryd.prog 91 #[.pointer (some ⟨b, 0, none⟩), .string s] w fun e w' => e = .returned (.tuple #[]) ∧ WAt B b w' (l ++ putL (s.size : Int) ++ s.data.toList) 0 ∧ Below B w w' ∧ KW b w w' := by
  have hle : (putL (s.size : Int)).length ≤ 8 := by
    unfold putL
    split
    · exact grp_le _ _
    · simp
  go_enter Tryd.func91, Tryd.ntmps91
  go_wp2_with (first | (go_at_call 90; refine (wnum_k B b _ l s.size h hBw (by omega) (by omega)).mono ?_; rintro e w1 ⟨rfl, h1, hb1, hk1⟩) | (go_at_call 114; refine (wadd_k B b _ _ s h1 (Nat.le_trans hBw hb1.size) (by rw [List.length_append]; omega)).mono ?_; rintro e w2 ⟨rfl, h2, hb2, hk2⟩))
  go_returns
  exact ⟨rfl, h2, hb1.trans hb2, hk1.trans hk2⟩
set_option maxRecDepth 100000 in
set_option maxHeartbeats 1600000 in
theorem wnum_badk (B b : Nat) (w : World) (l : List UInt8) (v : Int) (h : WAt B b w l 0) (hB : B ≤ w.heap.size) (hv : encB v = false) :
    Calls Tryd.prog 90 #[.pointer (some ⟨b, 0, none⟩), .int .i64 v] w fun e w' => e = .returned (.tuple #[]) ∧ WAt B b w' l 1 ∧ Below B w w' ∧ KW b w w' := by
  have hsv : strV (putL v) = .string ⟨#[]⟩ := by unfold putL; rw [hv]; rfl
  have hBb : B ≤ b := h.1
  go_enter Tryd.func90, Tryd.ntmps90
  go_wp2_with (first | (go_at_call 113; refine (put_any _ _).mono ?_; rintro e w1 ⟨rfl, hb1⟩; rw [hsv]; have h1 := h.below hb1; have d2 := h1.err; have e2 := h1.fr 2) | (go_at_call 114; refine (wadd_err B b _ l 1 _ (h1.setErr 1) rfl).mono ?_; rintro e w2 ⟨rfl, hw2⟩; obtain rfl : _ = w2 := hw2.symm))
  go_returns
  exact ⟨rfl, h1.setErr 1, (hb1.mono hB).setCell (p := ⟨b, 2, none⟩) hBb _, (KW.of hb1).setCell 2 _⟩
set_option maxRecDepth 100000 in
set_option maxHeartbeats 1600000 in
theorem whash_k (B b : Nat) (w : World) (l q : List UInt8) (hq : q.length = 32) (hBw : B ≤ w.heap.size) (h : WAt B b w l 0) (hlen : l.length + 32 ≤ 140737488355328) :
    Calls Tryd.prog 92 #[.pointer (some ⟨b, 0, none⟩), .agg (hrow q)] w fun e w' => e = .returned (.tuple #[]) ∧ WAt B b w' (l ++ q) 0 ∧ Below B w w' ∧ KW b w w' := by
  have hbA : Below w.heap.size w (w.alloc (.cells (hrow q) 25)) := Below.alloc (Below.refl _ _) (by simp) _
  have hg : (w.alloc (.cells (hrow q) 25)).heap[w.heap.size]? = some (.cells (hrow q) 25 (0, 0)) := by
    show (w.heap.push _)[w.heap.size]? = _
    simp
  have hcv : (convert 111 9 (.slice (some ⟨w.heap.size, 0, none⟩) 32 32)).run Tryd.prog (w.alloc (.cells (hrow q) 25)) = .ok (.string ⟨q.toArray⟩) (w.alloc (.cells (hrow q) 25)) := by
    have := run_convert_bytes_back (P := Tryd.prog) (w.alloc (.cells (hrow q) 25)) 111 9 5 ⟨w.heap.size, 0, none⟩ 32 q Tryd.underlying111 Tryd.underlying5 Tryd.underlying9 (fun j hj => by
      have hadd : (⟨w.heap.size, 0, none⟩ : Addr).add j = ⟨w.heap.size, j, none⟩ := by unfold Addr.add; by_cases h : j = 0 <;> simp [h]
      rw [hadd, cell_heap hg]; simp [hrow, Lib.byteCells, List.getElem?_eq_getElem hj])
    rwa [hq] at this
  go_enter Tryd.func92, Tryd.ntmps92
  go_wp2_with (go_at_call 114; refine (wadd_k B b _ l ⟨q.toArray⟩ (h.below hbA) (Nat.le_trans hBw hbA.size) (by rw [show (⟨q.toArray⟩ : ByteArray).size = q.length from rfl, hq]; exact hlen)).mono ?_; rintro e w2 ⟨rfl, h2, hb2, hk2⟩)
  go_returns
  exact ⟨rfl, by simpa using h2, (hbA.mono hBw).trans hb2, (KW.of hbA).trans hk2⟩
set_option maxRecDepth 100000 in
set_option maxHeartbeats 1600000 in
theorem whash_errk (B b : Nat) (w : World) (l q : List UInt8) (hq : q.length = 32) (err : Int) (h : WAt B b w l err) (he : (err == 0) = false) :
    Calls Tryd.prog 92 #[.pointer (some ⟨b, 0, none⟩), .agg (hrow q)] w fun e w' => e = .returned (.tuple #[]) ∧ WAt B b w' l err ∧ Below w.heap.size w w' := by
  have hbA : Below w.heap.size w (w.alloc (.cells (hrow q) 25)) := Below.alloc (Below.refl _ _) (by simp) _
  have hg : (w.alloc (.cells (hrow q) 25)).heap[w.heap.size]? = some (.cells (hrow q) 25 (0, 0)) := by
    show (w.heap.push _)[w.heap.size]? = _
    simp
  have hcv : (convert 111 9 (.slice (some ⟨w.heap.size, 0, none⟩) 32 32)).run Tryd.prog (w.alloc (.cells (hrow q) 25)) = .ok (.string ⟨q.toArray⟩) (w.alloc (.cells (hrow q) 25)) := by
    have := run_convert_bytes_back (P := Tryd.prog) (w.alloc (.cells (hrow q) 25)) 111 9 5 ⟨w.heap.size, 0, none⟩ 32 q Tryd.underlying111 Tryd.underlying5 Tryd.underlying9 (fun j hj => by
      have hadd : (⟨w.heap.size, 0, none⟩ : Addr).add j = ⟨w.heap.size, j, none⟩ := by unfold Addr.add; by_cases h : j = 0 <;> simp [h]
      rw [hadd, cell_heap hg]; simp [hrow, Lib.byteCells, List.getElem?_eq_getElem hj])
    rwa [hq] at this
  go_enter Tryd.func92, Tryd.ntmps92
  go_wp2_with (go_at_call 114; refine (wadd_err B b _ l err ⟨q.toArray⟩ (h.below hbA) he).mono ?_; rintro e w2 ⟨rfl, hw2⟩; obtain rfl : _ = w2 := hw2.symm)
  go_returns
  exact ⟨rfl, h.below hbA, hbA⟩
end Go.Proofs.YtfikbaoiialfeaaDoor
namespace Go.Proofs.YtfikbaoiialfeaaDoor
open Go.RowKit
attribute [local go_sem] strV
def mayK (sp : ByteArray) (sc : Int) (dp : ByteArray) (dc seq : Int) (dat : ByteArray) (th ta : Int) : Bool := mayE sp sc && mayE dp dc && decide (1 ≤ seq) && decide (seq ≤ 1099511627776) && decide (dat.size ≤ 200) && decide (0 ≤ th) && decide (th ≤ 1099511627776) && decide (0 ≤ ta) && decide (ta ≤ 1099511627776)

end Go.Proofs.YtfikbaoiialfeaaDoor
namespace Go.Proofs.YtfikbaoiialfeaaDoor
open Go.RowKit
attribute [local go_sem] strV
set_option linter.unusedVariables false
theorem KW.row2 {b g : Nat} {w w' : World} {C : Array Value} {e : TypeId} {fz : Nat × Nat} (h : KW b w w') (hg : w.heap[g]? = some (.cells C e fz)) (hb : g ≠ b) (he : e ≠ 5) : w'.heap[g]? = some (.cells C e fz) := by
  rw [h.keep g (Array.getElem?_eq_some_iff.1 hg).1 hb (fun cur fz' e2 => by rw [hg] at e2; simp only [Option.some.injEq, Obj.cells.injEq] at e2; exact he e2.2.1)]; exact hg
def endBy (p : ByteArray) (c : Int) : List UInt8 := (putL (p.size : Int) ++ p.data.toList) ++ putL c
theorem endBy_len (p : ByteArray) (c : Int) (hp : p.size ≤ 12) : (endBy p c).length ≤ 28 := by
  unfold endBy
  have := putL_len' (p.size : Int); have := putL_len' c
  simp only [List.length_append, str_len]; omega
def pkBy (sp : ByteArray) (sc : Int) (dp : ByteArray) (dc sq : Int) (da : ByteArray) (th ta : Int) : List UInt8 := endBy sp sc ++ endBy dp dc ++ putL sq ++ (putL (da.size : Int) ++ da.data.toList) ++ putL th ++ putL ta
theorem pkBy_len (sp : ByteArray) (sc : Int) (dp : ByteArray) (dc sq : Int) (da : ByteArray) (th ta : Int) (h1 : sp.size ≤ 12) (h2 : dp.size ≤ 12) (h3 : da.size ≤ 200) : (pkBy sp sc dp dc sq da th ta).length ≤ 288 := by
  unfold pkBy
  have := endBy_len sp sc h1; have := endBy_len dp dc h2
  have := putL_len' (da.size : Int); have := putL_len' sq; have := putL_len' th; have := putL_len' ta
  simp only [List.length_append, str_len]; omega
end Go.Proofs.YtfikbaoiialfeaaDoor
namespace Go.Proofs.YtfikbaoiialfeaaDoor
open Go.RowKit
attribute [local go_sem] strV
def reachB (a n : Int) : Bool := decide (0 < a) && decide (a ≤ n)
def overB (th ta h t : Int) : Bool := reachB th h || reachB ta t
def lightK (sp dp dat : ByteArray) : Bool := decide (sp.size ≤ 60) && decide (dp.size ≤ 60) && decide (dat.size ≤ 600)
end Go.Proofs.YtfikbaoiialfeaaDoor
