/- A Writer of package wire: a hash. A Writer of package wire: what each call keeps: every block but its own and rows of bytes. Packets: which may be, when they are over. Packets in bytes: Write. -/
import Derived.Test.YthipnkbfdkmhaaaGD
import Derived.Test.YthipnkbfdkmhaaaGC
import Derived.Laws.IdiomStrings
import Derived.Laws.Tables
import Derived.Laws.Rows
import Derived.Laws.Cells
import Derived.WalkKit
import Derived.ProofKit
import Derived.Handy
import Derived.Below
import Derived.BigQuiet
import Derived.Lib.Hide
import Derived.IntWalk
import Derived.Outline
import Derived.WalkLawsBesides
import Derived.WalkSpells
import Derived.Lib.Walk
import Derived.Deep.MidRow
import Derived.Deep.Cut
namespace Go.Proofs.Ythipnkbfdkmhaaa
open Go.RowKit
attribute [local go_sem] strV
end Go.Proofs.Ythipnkbfdkmhaaa
namespace Go.Proofs.Ythipnkbfdkmhaaa
open Go.RowKit
attribute [local go_sem] strV
structure KW (b : Nat) (w w' : World) : Prop where
  size : w.heap.size ≤ w'.heap.size
  keep : ∀ k, k < w.heap.size → k ≠ b → (∀ cur fz, w.heap[k]? ≠ some (.cells cur 5 fz)) → w'.heap[k]? = w.heap[k]?
theorem KW.trans {b : Nat} {w w1 w2 : World} (h : KW b w w1) (g : KW b w1 w2) : KW b w w2 :=
  ⟨Nat.le_trans h.size g.size, fun k hk hne hty => (g.keep k (Nat.lt_of_lt_of_le hk h.size) hne (by rw [h.keep k hk hne hty]; exact hty)).trans (h.keep k hk hne hty)⟩
theorem KW.of {b : Nat} {w w' : World} (h : Below w.heap.size w w') : KW b w w' := ⟨h.size, fun k hk _ _ => h.block k hk⟩
theorem KW.setCell {b : Nat} {w w1 : World} (h : KW b w w1) (o : Nat) (v : Value) : KW b w (w1.setCell ⟨b, o, none⟩ v) :=
  ⟨by rw [World.size_setCell]; exact h.size, fun k hk hne hty => by
    show (w1.heap.modify b _)[k]? = _
    rw [Array.getElem?_modify, if_neg (fun e => hne e.symm)]; exact h.keep k hk hne hty⟩
theorem copy_k (B b : Nat) (w : World) (l : List UInt8) (err : Int) (h : WAt B b w l err) :
    Calls Try.prog 134 #[.pointer (some ⟨b, 0, none⟩)] w fun e w' => e = .returned (.tuple #[]) ∧ Below B w w' ∧ w.heap.size = w'.heap.size ∧ KW b w w' ∧
      B ≤ b ∧ ∃ v, w'.heap[b]? = some (.cells #[.pointer (some ⟨b, 0, none⟩), v, .int .i64 err] 129 (0, 0)) ∧ w'.ownsRow B 5 1 v l.length (l.map bv) ∧ v.ownBlock ≠ some b := by
  obtain ⟨hB, p, v, hb, hp, hown, hne⟩ := h
  have c0 : w.cell? ⟨b, 0, none⟩ = some p := cell_heap hb 0
  rcases hp with rfl | rfl
  · refine (copy_fresh b w c0 (by unfold World.shape?; rw [hb]; rfl) (frozen_heap hb 0)).mono ?_
    rintro e w' ⟨rfl, rfl⟩
    refine ⟨rfl, (Below.refl _ _).setCell (p := ⟨b, 0, none⟩) hB _, by simp, (KW.of (Below.refl _ _)).setCell 0 _, hB, v, ?_, ownsRow_setCell_other hown (a := ⟨b, 0, none⟩) hne _, hne⟩
    simp [World.setCell, Array.getElem?_modify, hb]
  · refine (copy_used b w c0).mono ?_
    rintro e w' ⟨rfl, rfl⟩
    exact ⟨rfl, Below.refl _ _, rfl, KW.of (Below.refl _ _), hB, v, hb, hown, hne⟩
set_option maxRecDepth 100000 in
set_option maxHeartbeats 1600000 in
theorem wstr_k (B b : Nat) (w : World) (l : List UInt8) (err : Int) (s : ByteArray) (h : WAt B b w l err) (hBw : B ≤ w.heap.size) (hlen : l.length + s.size ≤ 140737488355328) :
    Calls Try.prog 128 #[.pointer (some ⟨b, 0, none⟩), .string s] w fun e w' => e = .returned (.tuple #[.int .i64 s.size, .nilIface]) ∧ WAt B b w' (l ++ s.data.toList) err ∧ Below B w w' ∧ KW b w w' := by
  obtain ⟨i0, hi, hz0, hz1, hz2⟩ := info_parts Try.infoByteW
  go_enter Try.func128, Try.ntmps128
  go_wp2_with (go_at_call 134; refine (copy_k B b _ l err h).mono ?_)
  rintro e w1 ⟨rfl, hb1, hsz1, hk1, hB, v, hbk, hown, hne⟩
  have c0 : w1.cell? ⟨b, 0, none⟩ = some (.pointer (some ⟨b, 0, none⟩)) := cell_heap hbk 0
  have c1 : w1.cell? ⟨b, 1, none⟩ = some v := cell_heap hbk 1
  go_wp2_with (at_builtin; refine Lib.wpList_append_own_string _ rfl _ _ 125 9 rfl B 5 i0 Try.underlying125 Try.underlying9 hi hz0 hz1 hz2 _ _ _ rfl hown s rfl ?c3 ?c4 ?c5 ?_)
  case c3 => unfold maxLen; omega
  case c4 => omega
  case c5 => omega
  intro v' w2 hown' hgrow _
  have hlt : b < w1.heap.size := (Array.getElem?_eq_some_iff.1 hbk).1
  have hb2 : w2.heap[b]? = some (.cells #[.pointer (some ⟨b, 0, none⟩), v, .int .i64 err] 129 (0, 0)) := by
    rw [hgrow.block b hlt (fun e => hne e.symm)]; exact hbk
  have d0 : w2.cell? ⟨b, 0, none⟩ = some (.pointer (some ⟨b, 0, none⟩)) := cell_heap hb2 0
  have d1 : w2.cell? ⟨b, 1, none⟩ = some v := cell_heap hb2 1
  have f1 : w2.frozen? ⟨b, 1, none⟩ = false := frozen_heap hb2 1
  have hne' : v'.ownBlock ≠ some b := by
    rcases hown'.2 with ⟨rfl, _⟩ | ⟨g, cap, cur, rfl, _, hg, _⟩
    · simp [Value.ownBlock]
    · intro e
      simp only [Value.ownBlock, Option.some.injEq] at e
      subst e
      rw [hb2] at hg
      simp at hg
  obtain ⟨ao, n', cap, rfl⟩ : ∃ ao n' cap, v' = .slice ao n' cap := by
    rcases hown'.2 with ⟨hv, _⟩ | ⟨g, cap, cur, hv, _⟩
    · exact ⟨_, _, _, hv⟩
    · exact ⟨_, _, _, hv⟩
  go_wp2
  go_returns
  have hk2 : KW b w1 w2 := ⟨hgrow.size, fun k hk hkb hty => hgrow.block k hk (fun e => by
    rcases hown.2 with ⟨rfl, _⟩ | ⟨g, cap, cur, rfl, _, hg, _⟩
    · simp [Value.ownBlock] at e
    · simp only [Value.ownBlock, Option.some.injEq] at e
      subst e
      exact hty _ _ hg)⟩
  refine ⟨rfl, ⟨hB, _, _, ?_, .inr rfl, ?_, hne'⟩, ?_, (hk1.trans hk2).setCell 1 _⟩
  · simp only [World.setCell, Array.getElem?_modify, hb2]
    simp
    first | done | rfl
  · have := ownsRow_setCell_other hown' (a := ⟨b, 1, none⟩) hne' (.slice ao n' cap)
    rw [List.length_append, List.map_append, str_len]
    exact this
  · exact (hb1.grown hgrow (by omega) (fun k hk => (hown.lt k hk).1)).setCell (p := ⟨b, 1, none⟩) hB _
set_option maxRecDepth 100000 in
set_option maxHeartbeats 1600000 in
theorem wadd_k (B b : Nat) (w : World) (l : List UInt8) (s : ByteArray) (h : WAt B b w l 0) (hBw : B ≤ w.heap.size) (hlen : l.length + s.size ≤ 140737488355328) :
    Calls Try.prog 114 #[.pointer (some ⟨b, 0, none⟩), .string s] w fun e w' => e = .returned (.tuple #[]) ∧ WAt B b w' (l ++ s.data.toList) 0 ∧ Below B w w' ∧ KW b w w' := by
  have he := h.err
  go_enter Try.func114, Try.ntmps114
  go_wp2_with (go_at_call 128; refine (wstr_k B b _ l 0 s h hBw hlen).mono ?_; rintro e w1 ⟨rfl, h1, hb1, hk1⟩)
  go_returns
  exact ⟨rfl, h1, hb1, hk1⟩
set_option maxRecDepth 100000 in
set_option maxHeartbeats 1600000 in
theorem wnum_k (B b : Nat) (w : World) (l : List UInt8) (x : Nat) (h : WAt B b w l 0) (hBw : B ≤ w.heap.size) (hx : x ≤ 72057594037927935) (hlen : l.length ≤ 1000000) :
    Calls Try.prog 76 #[.pointer (some ⟨b, 0, none⟩), .int .i64 (x : Int)] w fun e w' => e = .returned (.tuple #[]) ∧ WAt B b w' (l ++ putL x) 0 ∧ Below B w w' ∧ KW b w w' := by
  have henc : encB (x : Int) = true := by unfold encB; exact decide_eq_true (by omega)
  have hpos : 0 < (putL (x : Int)).length := by unfold putL; rw [henc, if_pos rfl]; exact grp_pos _ _
  have hle : (putL (x : Int)).length ≤ 8 := by unfold putL; rw [henc, if_pos rfl]; exact grp_le _ _
  obtain ⟨q, hq⟩ : ∃ q : ByteArray, q = ⟨(putL (x : Int)).toArray⟩ := ⟨_, rfl⟩
  have hql : q.data.toList = putL (x : Int) := by rw [hq]
  have hsv : strV (putL (x : Int)) = .string q := by rw [hq]; rfl
  have hqs : q.size = (putL (x : Int)).length := by rw [← str_len, hql]
  have hne := str_ne'' (show 0 < q.size by omega)
  have hne2 := str_ne' (show 0 < q.size by omega)
  rw [← hql]
  clear hq hql henc
  go_enter Try.func76, Try.ntmps76
  go_wp2_with (first | (go_at_call 113; refine (put_any _ _).mono ?_; rintro e w1 ⟨rfl, hb1⟩; rw [hsv]) | (go_at_call 114; refine (wadd_k B b _ l q (h.below hb1) (Nat.le_trans hBw hb1.size) (by omega)).mono ?_; rintro e w2 ⟨rfl, h2, hb2, hk2⟩))
  go_returns
  exact ⟨rfl, h2, (hb1.mono hBw).trans hb2, (KW.of hb1).trans hk2⟩
set_option maxRecDepth 100000 in
set_option maxHeartbeats 1600000 in
theorem wtext_k (B b : Nat) (w : World) (l : List UInt8) (s : ByteArray) (h : WAt B b w l 0) (hBw : B ≤ w.heap.size) (hs : s.size ≤ 1000000) (hlen : l.length ≤ 900000) :
    Calls Try.prog 77 #[.pointer (some ⟨b, 0, none⟩), .string s] w fun e w' => e = .returned (.tuple #[]) ∧ WAt B b w' (l ++ putL (s.size : Int) ++ s.data.toList) 0 ∧ Below B w w' ∧ KW b w w' := by
  have hle : (putL (s.size : Int)).length ≤ 8 := by
    unfold putL
    split
    · exact grp_le _ _
    · simp
  go_enter Try.func77, Try.ntmps77
  go_wp2_with (first | (go_at_call 76; refine (wnum_k B b _ l s.size h hBw (by omega) (by omega)).mono ?_; rintro e w1 ⟨rfl, h1, hb1, hk1⟩) | (go_at_call 114; refine (wadd_k B b _ _ s h1 (Nat.le_trans hBw hb1.size) (by rw [List.length_append]; omega)).mono ?_; rintro e w2 ⟨rfl, h2, hb2, hk2⟩))
  go_returns
  exact ⟨rfl, h2, hb1.trans hb2, hk1.trans hk2⟩
set_option maxRecDepth 100000 in
set_option maxHeartbeats 1600000 in
theorem whash_k (B b : Nat) (w : World) (l q : List UInt8) (hq : q.length = 32) (hBw : B ≤ w.heap.size) (h : WAt B b w l 0) (hlen : l.length + 32 ≤ 140737488355328) :
    Calls Try.prog 92 #[.pointer (some ⟨b, 0, none⟩), .agg (hrow q)] w fun e w' => e = .returned (.tuple #[]) ∧ WAt B b w' (l ++ q) 0 ∧ Below B w w' ∧ KW b w w' := by
  have hbA : Below w.heap.size w (w.alloc (.cells (hrow q) 23)) := Below.alloc (Below.refl _ _) (by simp) _
  have hg : (w.alloc (.cells (hrow q) 23)).heap[w.heap.size]? = some (.cells (hrow q) 23 (0, 0)) := by
    show (w.heap.push _)[w.heap.size]? = _
    simp
  have hcv : (convert 125 9 (.slice (some ⟨w.heap.size, 0, none⟩) 32 32)).run Try.prog (w.alloc (.cells (hrow q) 23)) = .ok (.string ⟨q.toArray⟩) (w.alloc (.cells (hrow q) 23)) := by
    have := run_convert_bytes_back (P := Try.prog) (w.alloc (.cells (hrow q) 23)) 125 9 5 ⟨w.heap.size, 0, none⟩ 32 q Try.underlying125 Try.underlying5 Try.underlying9 (fun j hj => by
      have hadd : (⟨w.heap.size, 0, none⟩ : Addr).add j = ⟨w.heap.size, j, none⟩ := by unfold Addr.add; by_cases h : j = 0 <;> simp [h]
      rw [hadd, cell_heap hg]; simp [hrow, Lib.byteCells, List.getElem?_eq_getElem hj])
    rwa [hq] at this
  go_enter Try.func92, Try.ntmps92
  go_wp2_with (go_at_call 114; refine (wadd_k B b _ l ⟨q.toArray⟩ (h.below hbA) (Nat.le_trans hBw hbA.size) (by rw [show (⟨q.toArray⟩ : ByteArray).size = q.length from rfl, hq]; exact hlen)).mono ?_; rintro e w2 ⟨rfl, h2, hb2, hk2⟩)
  go_returns
  exact ⟨rfl, by simpa using h2, (hbA.mono hBw).trans hb2, (KW.of hbA).trans hk2⟩
end Go.Proofs.Ythipnkbfdkmhaaa
namespace Go.Proofs.Ythipnkbfdkmhaaa
open Go.RowKit
attribute [local go_sem] strV
def mayK (sp : ByteArray) (sc : Int) (dp : ByteArray) (dc seq : Int) (dat : ByteArray) (th ta : Int) : Bool := mayE sp sc && mayE dp dc && decide (1 ≤ seq) && decide (seq ≤ 1099511627776) && decide (dat.size ≤ 200) && decide (0 ≤ th) && decide (th ≤ 1099511627776) && decide (0 ≤ ta) && decide (ta ≤ 1099511627776)

set_option maxRecDepth 100000 in
set_option maxHeartbeats 6400000 in
theorem mayPk_any (sp : ByteArray) (sc : Int) (dp : ByteArray) (dc seq : Int) (dat : ByteArray) (th ta : Int) (w : World) (hs1 : sp.size ≤ maxLen) (hs2 : dp.size ≤ maxLen) :
    Calls Try.prog 54 #[.agg #[.string sp, .int .i64 sc, .string dp, .int .i64 dc, .int .i64 seq, .string dat, .int .i64 th, .int .i64 ta]] w fun e w' => e = .returned (.bool (mayK sp sc dp dc seq dat th ta)) ∧ Below w.heap.size w w' := by
  cases q0 : mayE sp sc
  · have HR : Hid (mayK sp sc dp dc seq dat th ta = false) := Lib.hid (by unfold mayK; rw [q0]; simp)
    have q1 := q0
    go_enter Try.func54, Try.ntmps54
    go_wp2_with (go_at_call 98; refine (mayEnd_any _ _ _ (by with_reducible assumption)).mono ?_; rintro e w1 ⟨rfl, hb⟩; (first | rw [q0] | rw [q1]); obtain ⟨hc1, hf1⟩ := bcell hb; have hz1 : w.heap.size < w1.heap.size := (by have := hb.size; (try simp at this); omega))
    go_ret
    exact ⟨by rw [HR.out]; first | done | rfl, by repeat (first | assumption | exact Below.refl _ _ | refine bch ?_ (by assumption) | refine Below.alloc ?_ (by simp) _)⟩
  cases q1 : mayE dp dc
  · have HR : Hid (mayK sp sc dp dc seq dat th ta = false) := Lib.hid (by unfold mayK; rw [q1]; simp)
    go_enter Try.func54, Try.ntmps54
    go_wp2_with (go_at_call 98; refine (mayEnd_any _ _ _ (by with_reducible assumption)).mono ?_; rintro e w1 ⟨rfl, hb⟩; (first | rw [q0] | rw [q1]); obtain ⟨hc1, hf1⟩ := bcell hb; have hz1 : w.heap.size < w1.heap.size := (by have := hb.size; (try simp at this); omega))
    go_ret
    exact ⟨by rw [HR.out]; first | done | rfl, by repeat (first | assumption | exact Below.refl _ _ | refine bch ?_ (by assumption) | refine Below.alloc ?_ (by simp) _)⟩
  cases q2 : decide (1 ≤ seq)
  · have HR : Hid (mayK sp sc dp dc seq dat th ta = false) := Lib.hid (by unfold mayK; rw [q2]; simp)
    go_enter Try.func54, Try.ntmps54
    go_wp2_with (go_at_call 98; refine (mayEnd_any _ _ _ (by with_reducible assumption)).mono ?_; rintro e w1 ⟨rfl, hb⟩; (first | rw [q0] | rw [q1]); obtain ⟨hc1, hf1⟩ := bcell hb; have hz1 : w.heap.size < w1.heap.size := (by have := hb.size; (try simp at this); omega))
    go_ret
    exact ⟨by rw [HR.out]; first | done | rfl, by repeat (first | assumption | exact Below.refl _ _ | refine bch ?_ (by assumption) | refine Below.alloc ?_ (by simp) _)⟩
  cases q3 : decide (seq ≤ 1099511627776)
  · have HR : Hid (mayK sp sc dp dc seq dat th ta = false) := Lib.hid (by unfold mayK; rw [q3]; simp)
    go_enter Try.func54, Try.ntmps54
    go_wp2_with (go_at_call 98; refine (mayEnd_any _ _ _ (by with_reducible assumption)).mono ?_; rintro e w1 ⟨rfl, hb⟩; (first | rw [q0] | rw [q1]); obtain ⟨hc1, hf1⟩ := bcell hb; have hz1 : w.heap.size < w1.heap.size := (by have := hb.size; (try simp at this); omega))
    go_ret
    exact ⟨by rw [HR.out]; first | done | rfl, by repeat (first | assumption | exact Below.refl _ _ | refine bch ?_ (by assumption) | refine Below.alloc ?_ (by simp) _)⟩
  cases q4 : decide (dat.size ≤ 200)
  · have HR : Hid (mayK sp sc dp dc seq dat th ta = false) := Lib.hid (by unfold mayK; rw [q4]; simp)
    have f4 : decide ((dat.size : Int) ≤ 200) = false := by rw [← q4, decide_eq_decide]; omega
    go_enter Try.func54, Try.ntmps54
    go_wp2_with (go_at_call 98; refine (mayEnd_any _ _ _ (by with_reducible assumption)).mono ?_; rintro e w1 ⟨rfl, hb⟩; (first | rw [q0] | rw [q1]); obtain ⟨hc1, hf1⟩ := bcell hb; have hz1 : w.heap.size < w1.heap.size := (by have := hb.size; (try simp at this); omega))
    go_ret
    exact ⟨by rw [HR.out]; first | done | rfl, by repeat (first | assumption | exact Below.refl _ _ | refine bch ?_ (by assumption) | refine Below.alloc ?_ (by simp) _)⟩
  cases q5 : decide (0 ≤ th)
  · have HR : Hid (mayK sp sc dp dc seq dat th ta = false) := Lib.hid (by unfold mayK; rw [q5]; simp)
    have f4 : decide ((dat.size : Int) ≤ 200) = true := by rw [← q4, decide_eq_decide]; omega
    go_enter Try.func54, Try.ntmps54
    go_wp2_with (go_at_call 98; refine (mayEnd_any _ _ _ (by with_reducible assumption)).mono ?_; rintro e w1 ⟨rfl, hb⟩; (first | rw [q0] | rw [q1]); obtain ⟨hc1, hf1⟩ := bcell hb; have hz1 : w.heap.size < w1.heap.size := (by have := hb.size; (try simp at this); omega))
    go_ret
    exact ⟨by rw [HR.out]; first | done | rfl, by repeat (first | assumption | exact Below.refl _ _ | refine bch ?_ (by assumption) | refine Below.alloc ?_ (by simp) _)⟩
  cases q6 : decide (th ≤ 1099511627776)
  · have HR : Hid (mayK sp sc dp dc seq dat th ta = false) := Lib.hid (by unfold mayK; rw [q6]; simp)
    have f4 : decide ((dat.size : Int) ≤ 200) = true := by rw [← q4, decide_eq_decide]; omega
    go_enter Try.func54, Try.ntmps54
    go_wp2_with (go_at_call 98; refine (mayEnd_any _ _ _ (by with_reducible assumption)).mono ?_; rintro e w1 ⟨rfl, hb⟩; (first | rw [q0] | rw [q1]); obtain ⟨hc1, hf1⟩ := bcell hb; have hz1 : w.heap.size < w1.heap.size := (by have := hb.size; (try simp at this); omega))
    go_ret
    exact ⟨by rw [HR.out]; first | done | rfl, by repeat (first | assumption | exact Below.refl _ _ | refine bch ?_ (by assumption) | refine Below.alloc ?_ (by simp) _)⟩
  cases q7 : decide (0 ≤ ta)
  · have HR : Hid (mayK sp sc dp dc seq dat th ta = false) := Lib.hid (by unfold mayK; rw [q7]; simp)
    have f4 : decide ((dat.size : Int) ≤ 200) = true := by rw [← q4, decide_eq_decide]; omega
    go_enter Try.func54, Try.ntmps54
    go_wp2_with (go_at_call 98; refine (mayEnd_any _ _ _ (by with_reducible assumption)).mono ?_; rintro e w1 ⟨rfl, hb⟩; (first | rw [q0] | rw [q1]); obtain ⟨hc1, hf1⟩ := bcell hb; have hz1 : w.heap.size < w1.heap.size := (by have := hb.size; (try simp at this); omega))
    go_ret
    exact ⟨by rw [HR.out]; first | done | rfl, by repeat (first | assumption | exact Below.refl _ _ | refine bch ?_ (by assumption) | refine Below.alloc ?_ (by simp) _)⟩
  cases q8 : decide (ta ≤ 1099511627776)
  · have HR : Hid (mayK sp sc dp dc seq dat th ta = false) := Lib.hid (by unfold mayK; rw [q8]; simp)
    have f4 : decide ((dat.size : Int) ≤ 200) = true := by rw [← q4, decide_eq_decide]; omega
    go_enter Try.func54, Try.ntmps54
    go_wp2_with (go_at_call 98; refine (mayEnd_any _ _ _ (by with_reducible assumption)).mono ?_; rintro e w1 ⟨rfl, hb⟩; (first | rw [q0] | rw [q1]); obtain ⟨hc1, hf1⟩ := bcell hb; have hz1 : w.heap.size < w1.heap.size := (by have := hb.size; (try simp at this); omega))
    go_ret
    exact ⟨by rw [HR.out]; first | done | rfl, by repeat (first | assumption | exact Below.refl _ _ | refine bch ?_ (by assumption) | refine Below.alloc ?_ (by simp) _)⟩
  have HR : Hid (mayK sp sc dp dc seq dat th ta = true) := Lib.hid (by unfold mayK; rw [q0, q1, q2, q3, q4, q5, q6, q7, q8]; rfl)
  have f4 : decide ((dat.size : Int) ≤ 200) = true := by rw [← q4, decide_eq_decide]; omega
  go_enter Try.func54, Try.ntmps54
  go_wp2_with (go_at_call 98; refine (mayEnd_any _ _ _ (by with_reducible assumption)).mono ?_; rintro e w1 ⟨rfl, hb⟩; (first | rw [q0] | rw [q1]); obtain ⟨hc1, hf1⟩ := bcell hb; have hz1 : w.heap.size < w1.heap.size := (by have := hb.size; (try simp at this); omega))
  go_ret
  exact ⟨by rw [HR.out]; first | done | rfl, by repeat (first | assumption | exact Below.refl _ _ | refine bch ?_ (by assumption) | refine Below.alloc ?_ (by simp) _)⟩

set_option maxRecDepth 100000 in
set_option maxHeartbeats 6400000 in
theorem refMayPk_any (sp : ByteArray) (sc : Int) (dp : ByteArray) (dc seq : Int) (dat : ByteArray) (th ta : Int) (w : World) (hs1 : sp.size ≤ maxLen) (hs2 : dp.size ≤ maxLen) :
    Calls Try.prog 72 #[.agg #[.string sp, .int .i64 sc, .string dp, .int .i64 dc, .int .i64 seq, .string dat, .int .i64 th, .int .i64 ta]] w fun e w' => e = .returned (.bool (mayK sp sc dp dc seq dat th ta)) ∧ Below w.heap.size w w' := by
  cases q0 : mayE sp sc
  · have HR : Hid (mayK sp sc dp dc seq dat th ta = false) := Lib.hid (by unfold mayK; rw [q0]; simp)
    have q1 := q0
    go_enter Try.func72, Try.ntmps72
    go_wp2_with (go_at_call 109; refine (refMayEnd_any _ _ _ (by with_reducible assumption)).mono ?_; rintro e w1 ⟨rfl, hb⟩; (first | rw [q0] | rw [q1]); obtain ⟨hc1, hf1⟩ := bcell hb; have hz1 : w.heap.size < w1.heap.size := (by have := hb.size; (try simp at this); omega))
    go_ret
    exact ⟨by rw [HR.out]; first | done | rfl, by repeat (first | assumption | exact Below.refl _ _ | refine bch ?_ (by assumption) | refine Below.alloc ?_ (by simp) _)⟩
  cases q1 : mayE dp dc
  · have HR : Hid (mayK sp sc dp dc seq dat th ta = false) := Lib.hid (by unfold mayK; rw [q1]; simp)
    go_enter Try.func72, Try.ntmps72
    go_wp2_with (go_at_call 109; refine (refMayEnd_any _ _ _ (by with_reducible assumption)).mono ?_; rintro e w1 ⟨rfl, hb⟩; (first | rw [q0] | rw [q1]); obtain ⟨hc1, hf1⟩ := bcell hb; have hz1 : w.heap.size < w1.heap.size := (by have := hb.size; (try simp at this); omega))
    go_ret
    exact ⟨by rw [HR.out]; first | done | rfl, by repeat (first | assumption | exact Below.refl _ _ | refine bch ?_ (by assumption) | refine Below.alloc ?_ (by simp) _)⟩
  cases q2 : decide (1 ≤ seq)
  · have HR : Hid (mayK sp sc dp dc seq dat th ta = false) := Lib.hid (by unfold mayK; rw [q2]; simp)
    go_enter Try.func72, Try.ntmps72
    go_wp2_with (go_at_call 109; refine (refMayEnd_any _ _ _ (by with_reducible assumption)).mono ?_; rintro e w1 ⟨rfl, hb⟩; (first | rw [q0] | rw [q1]); obtain ⟨hc1, hf1⟩ := bcell hb; have hz1 : w.heap.size < w1.heap.size := (by have := hb.size; (try simp at this); omega))
    go_ret
    exact ⟨by rw [HR.out]; first | done | rfl, by repeat (first | assumption | exact Below.refl _ _ | refine bch ?_ (by assumption) | refine Below.alloc ?_ (by simp) _)⟩
  cases q3 : decide (seq ≤ 1099511627776)
  · have HR : Hid (mayK sp sc dp dc seq dat th ta = false) := Lib.hid (by unfold mayK; rw [q3]; simp)
    go_enter Try.func72, Try.ntmps72
    go_wp2_with (go_at_call 109; refine (refMayEnd_any _ _ _ (by with_reducible assumption)).mono ?_; rintro e w1 ⟨rfl, hb⟩; (first | rw [q0] | rw [q1]); obtain ⟨hc1, hf1⟩ := bcell hb; have hz1 : w.heap.size < w1.heap.size := (by have := hb.size; (try simp at this); omega))
    go_ret
    exact ⟨by rw [HR.out]; first | done | rfl, by repeat (first | assumption | exact Below.refl _ _ | refine bch ?_ (by assumption) | refine Below.alloc ?_ (by simp) _)⟩
  cases q4 : decide (dat.size ≤ 200)
  · have HR : Hid (mayK sp sc dp dc seq dat th ta = false) := Lib.hid (by unfold mayK; rw [q4]; simp)
    have f4 : decide ((dat.size : Int) ≤ 200) = false := by rw [← q4, decide_eq_decide]; omega
    go_enter Try.func72, Try.ntmps72
    go_wp2_with (go_at_call 109; refine (refMayEnd_any _ _ _ (by with_reducible assumption)).mono ?_; rintro e w1 ⟨rfl, hb⟩; (first | rw [q0] | rw [q1]); obtain ⟨hc1, hf1⟩ := bcell hb; have hz1 : w.heap.size < w1.heap.size := (by have := hb.size; (try simp at this); omega))
    go_ret
    exact ⟨by rw [HR.out]; first | done | rfl, by repeat (first | assumption | exact Below.refl _ _ | refine bch ?_ (by assumption) | refine Below.alloc ?_ (by simp) _)⟩
  cases q5 : decide (0 ≤ th)
  · have HR : Hid (mayK sp sc dp dc seq dat th ta = false) := Lib.hid (by unfold mayK; rw [q5]; simp)
    have f4 : decide ((dat.size : Int) ≤ 200) = true := by rw [← q4, decide_eq_decide]; omega
    go_enter Try.func72, Try.ntmps72
    go_wp2_with (go_at_call 109; refine (refMayEnd_any _ _ _ (by with_reducible assumption)).mono ?_; rintro e w1 ⟨rfl, hb⟩; (first | rw [q0] | rw [q1]); obtain ⟨hc1, hf1⟩ := bcell hb; have hz1 : w.heap.size < w1.heap.size := (by have := hb.size; (try simp at this); omega))
    go_ret
    exact ⟨by rw [HR.out]; first | done | rfl, by repeat (first | assumption | exact Below.refl _ _ | refine bch ?_ (by assumption) | refine Below.alloc ?_ (by simp) _)⟩
  cases q6 : decide (th ≤ 1099511627776)
  · have HR : Hid (mayK sp sc dp dc seq dat th ta = false) := Lib.hid (by unfold mayK; rw [q6]; simp)
    have f4 : decide ((dat.size : Int) ≤ 200) = true := by rw [← q4, decide_eq_decide]; omega
    go_enter Try.func72, Try.ntmps72
    go_wp2_with (go_at_call 109; refine (refMayEnd_any _ _ _ (by with_reducible assumption)).mono ?_; rintro e w1 ⟨rfl, hb⟩; (first | rw [q0] | rw [q1]); obtain ⟨hc1, hf1⟩ := bcell hb; have hz1 : w.heap.size < w1.heap.size := (by have := hb.size; (try simp at this); omega))
    go_ret
    exact ⟨by rw [HR.out]; first | done | rfl, by repeat (first | assumption | exact Below.refl _ _ | refine bch ?_ (by assumption) | refine Below.alloc ?_ (by simp) _)⟩
  cases q7 : decide (0 ≤ ta)
  · have HR : Hid (mayK sp sc dp dc seq dat th ta = false) := Lib.hid (by unfold mayK; rw [q7]; simp)
    have f4 : decide ((dat.size : Int) ≤ 200) = true := by rw [← q4, decide_eq_decide]; omega
    go_enter Try.func72, Try.ntmps72
    go_wp2_with (go_at_call 109; refine (refMayEnd_any _ _ _ (by with_reducible assumption)).mono ?_; rintro e w1 ⟨rfl, hb⟩; (first | rw [q0] | rw [q1]); obtain ⟨hc1, hf1⟩ := bcell hb; have hz1 : w.heap.size < w1.heap.size := (by have := hb.size; (try simp at this); omega))
    go_ret
    exact ⟨by rw [HR.out]; first | done | rfl, by repeat (first | assumption | exact Below.refl _ _ | refine bch ?_ (by assumption) | refine Below.alloc ?_ (by simp) _)⟩
  cases q8 : decide (ta ≤ 1099511627776)
  · have HR : Hid (mayK sp sc dp dc seq dat th ta = false) := Lib.hid (by unfold mayK; rw [q8]; simp)
    have f4 : decide ((dat.size : Int) ≤ 200) = true := by rw [← q4, decide_eq_decide]; omega
    go_enter Try.func72, Try.ntmps72
    go_wp2_with (go_at_call 109; refine (refMayEnd_any _ _ _ (by with_reducible assumption)).mono ?_; rintro e w1 ⟨rfl, hb⟩; (first | rw [q0] | rw [q1]); obtain ⟨hc1, hf1⟩ := bcell hb; have hz1 : w.heap.size < w1.heap.size := (by have := hb.size; (try simp at this); omega))
    go_ret
    exact ⟨by rw [HR.out]; first | done | rfl, by repeat (first | assumption | exact Below.refl _ _ | refine bch ?_ (by assumption) | refine Below.alloc ?_ (by simp) _)⟩
  have HR : Hid (mayK sp sc dp dc seq dat th ta = true) := Lib.hid (by unfold mayK; rw [q0, q1, q2, q3, q4, q5, q6, q7, q8]; rfl)
  have f4 : decide ((dat.size : Int) ≤ 200) = true := by rw [← q4, decide_eq_decide]; omega
  go_enter Try.func72, Try.ntmps72
  go_wp2_with (go_at_call 109; refine (refMayEnd_any _ _ _ (by with_reducible assumption)).mono ?_; rintro e w1 ⟨rfl, hb⟩; (first | rw [q0] | rw [q1]); obtain ⟨hc1, hf1⟩ := bcell hb; have hz1 : w.heap.size < w1.heap.size := (by have := hb.size; (try simp at this); omega))
  go_ret
  exact ⟨by rw [HR.out]; first | done | rfl, by repeat (first | assumption | exact Below.refl _ _ | refine bch ?_ (by assumption) | refine Below.alloc ?_ (by simp) _)⟩
end Go.Proofs.Ythipnkbfdkmhaaa
namespace Go.Proofs.Ythipnkbfdkmhaaa
open Go.RowKit
attribute [local go_sem] strV
set_option linter.unusedVariables false
theorem KW.row2 {b g : Nat} {w w' : World} {C : Array Value} {e : TypeId} {fz : Nat × Nat} (h : KW b w w') (hg : w.heap[g]? = some (.cells C e fz)) (hb : g ≠ b) (he : e ≠ 5) : w'.heap[g]? = some (.cells C e fz) := by
  rw [h.keep g (Array.getElem?_eq_some_iff.1 hg).1 hb (fun cur fz' e2 => by rw [hg] at e2; simp only [Option.some.injEq, Obj.cells.injEq] at e2; exact he e2.2.1)]; exact hg
def endBy (p : ByteArray) (c : Int) : List UInt8 := (putL (p.size : Int) ++ p.data.toList) ++ putL c
theorem endBy_len (p : ByteArray) (c : Int) (hp : p.size ≤ 12) : (endBy p c).length ≤ 28 := by
  unfold endBy
  have := putL_len' (p.size : Int); have := putL_len' c
  simp only [List.length_append, str_len]; omega
def pkBy (sp : ByteArray) (sc : Int) (dp : ByteArray) (dc sq : Int) (da : ByteArray) (th ta : Int) : List UInt8 := endBy sp sc ++ endBy dp dc ++ putL sq ++ (putL (da.size : Int) ++ da.data.toList) ++ putL th ++ putL ta
theorem pkBy_len (sp : ByteArray) (sc : Int) (dp : ByteArray) (dc sq : Int) (da : ByteArray) (th ta : Int) (h1 : sp.size ≤ 12) (h2 : dp.size ≤ 12) (h3 : da.size ≤ 200) : (pkBy sp sc dp dc sq da th ta).length ≤ 288 := by
  unfold pkBy
  have := endBy_len sp sc h1; have := endBy_len dp dc h2
  have := putL_len' (da.size : Int); have := putL_len' sq; have := putL_len' th; have := putL_len' ta
  simp only [List.length_append, str_len]; omega
set_option maxRecDepth 100000 in
set_option maxHeartbeats 1600000 in
theorem writeEnd_any (B b : Nat) (w : World) (l : List UInt8) (p : ByteArray) (cN : Nat) (hW : WAt B b w l 0) (hBw : B ≤ w.heap.size) (hp : p.size ≤ 12) (hc : cN ≤ 999) (hl : l.length ≤ 800000) :
    Calls Try.prog 117 #[.pointer (some ⟨b, 0, none⟩), .agg #[.string p, .int .i64 (cN : Int)]] w fun e w' => e = .returned (.tuple #[]) ∧ WAt B b w' (l ++ endBy p cN) 0 ∧ Below B w w' ∧ KW b w w' := by
  have hg0 : (w.alloc (.cells #[.string p, .int .i64 (cN : Int)] 27)).heap[w.heap.size]? = some (.cells #[.string p, .int .i64 (cN : Int)] 27 (0, 0)) := by
    show (w.heap.push _)[w.heap.size]? = _
    rw [Array.getElem?_push_size]
  have hbA : Below w.heap.size w (w.alloc (.cells #[.string p, .int .i64 (cN : Int)] 27)) := Below.alloc (Below.refl _ _) (Nat.le_refl _) _
  have a1 := putL_len' (p.size : Int)
  go_enter Try.func117, Try.ntmps117
  go_upto_region 1 with fail
  refine wp_nameE _ (fun W1 hW1 => ?_)
  have hg := hg0
  rw [← hW1] at hg
  have hb1 : Below w.heap.size w W1 := by rw [hW1]; exact hbA
  have hbel : Below B w W1 := hb1.mono hBw
  have hkw : KW b w W1 := KW.of hb1
  have hgb : w.heap.size ≠ b := by have := hW.lt; omega
  have hW := hW.below hb1
  have hBw := Nat.le_trans hBw hb1.size
  clear hW1 hg0 hbA hb1
  have q0 := cell_heap hg 0; have q1 := cell_heap hg 1
  go_wp2_with (first | (go_at_call 77; refine (wtext_k B b _ _ p hW hBw ?_ ?_).mono ?_; omega; (first | omega | (simp only [List.length_append]; omega) | (simp only [List.length_append, str_len]; omega)); rintro e w2 ⟨rfl, hW, hb2, hk2⟩; have hg := hk2.row2 hg hgb (by decide); have hBw := Nat.le_trans hBw hk2.size; have hbel := hbel.trans hb2; have hkw := hkw.trans hk2; have q0 := cell_heap hg 0; have q1 := cell_heap hg 1) | (go_at_call 76; refine (wnum_k B b _ _ cN hW hBw ?_ ?_).mono ?_; omega; (first | omega | (simp only [List.length_append]; omega) | (simp only [List.length_append, str_len]; omega)); rintro e w3 ⟨rfl, hW, hb3, hk3⟩; have hg := hk3.row2 hg hgb (by decide); have hBw := Nat.le_trans hBw hk3.size; have hbel := hbel.trans hb3; have hkw := hkw.trans hk3))
  go_returns
  exact ⟨rfl, by unfold endBy; simpa only [List.append_assoc] using hW, hbel, hkw⟩
set_option maxRecDepth 100000 in
set_option maxHeartbeats 6400000 in
theorem pkWrite_any (B b : Nat) (w : World) (l : List UInt8) (sp : ByteArray) (scN : Nat) (dp : ByteArray) (dcN sqN : Nat) (da : ByteArray) (thN taN : Nat) (hW : WAt B b w l 0) (hBw : B ≤ w.heap.size) (h1 : sp.size ≤ 12) (h2 : dp.size ≤ 12) (h3 : da.size ≤ 200) (c1 : scN ≤ 999) (c2 : dcN ≤ 999) (c3 : sqN ≤ 1099511627776) (c4 : thN ≤ 1099511627776) (c5 : taN ≤ 1099511627776) (hl : l.length ≤ 700000) :
    Calls Try.prog 93 #[.pointer (some ⟨b, 0, none⟩), .agg #[.string sp, .int .i64 (scN : Int), .string dp, .int .i64 (dcN : Int), .int .i64 (sqN : Int), .string da, .int .i64 (thN : Int), .int .i64 (taN : Int)]] w fun e w' => e = .returned (.tuple #[]) ∧ WAt B b w' (l ++ pkBy sp scN dp dcN sqN da thN taN) 0 ∧ Below B w w' ∧ KW b w w' := by
  have hg0 : (w.alloc (.cells #[.string sp, .int .i64 (scN : Int), .string dp, .int .i64 (dcN : Int), .int .i64 (sqN : Int), .string da, .int .i64 (thN : Int), .int .i64 (taN : Int)] 29)).heap[w.heap.size]? = some (.cells #[.string sp, .int .i64 (scN : Int), .string dp, .int .i64 (dcN : Int), .int .i64 (sqN : Int), .string da, .int .i64 (thN : Int), .int .i64 (taN : Int)] 29 (0, 0)) := by
    show (w.heap.push _)[w.heap.size]? = _
    rw [Array.getElem?_push_size]
  have hbA : Below w.heap.size w (w.alloc (.cells #[.string sp, .int .i64 (scN : Int), .string dp, .int .i64 (dcN : Int), .int .i64 (sqN : Int), .string da, .int .i64 (thN : Int), .int .i64 (taN : Int)] 29)) := Below.alloc (Below.refl _ _) (Nat.le_refl _) _
  have a1 := endBy_len sp scN h1; have a2 := endBy_len dp dcN h2
  have a3 := putL_len' (da.size : Int); have a4 := putL_len' (sqN : Int); have a5 := putL_len' (thN : Int); have a6 := putL_len' (taN : Int)
  go_enter Try.func93, Try.ntmps93
  go_upto_region 1 with fail
  refine wp_nameE _ (fun W1 hW1 => ?_)
  have hg := hg0
  rw [← hW1] at hg
  have hb1 : Below w.heap.size w W1 := by rw [hW1]; exact hbA
  have hbel : Below B w W1 := hb1.mono hBw
  have hkw : KW b w W1 := KW.of hb1
  have hgb : w.heap.size ≠ b := by have := hW.lt; omega
  have hW := hW.below hb1
  have hBw := Nat.le_trans hBw hb1.size
  clear hW1 hg0 hbA hb1
  have q0 := cell_heap hg 0; have q1 := cell_heap hg 1; have q2 := cell_heap hg 2; have q3 := cell_heap hg 3; have q4 := cell_heap hg 4; have q5 := cell_heap hg 5; have q6 := cell_heap hg 6; have q7 := cell_heap hg 7
  go_upto_region 2 with (go_at_call 117; refine (writeEnd_any B b _ _ sp scN hW hBw ?_ ?_ ?_).mono ?_; omega; omega; (first | omega | (simp only [List.length_append]; omega) | (simp only [List.length_append, str_len]; omega)); rintro e w2 ⟨rfl, hW, hb2, hk2⟩; have hg := hk2.row2 hg hgb (by decide); have hBw := Nat.le_trans hBw hk2.size; have hbel := hbel.trans hb2; have hkw := hkw.trans hk2; have q0 := cell_heap hg 0; have q1 := cell_heap hg 1; have q2 := cell_heap hg 2; have q3 := cell_heap hg 3; have q4 := cell_heap hg 4; have q5 := cell_heap hg 5; have q6 := cell_heap hg 6; have q7 := cell_heap hg 7)
  go_upto_region 3 with (go_at_call 117; refine (writeEnd_any B b _ _ dp dcN hW hBw ?_ ?_ ?_).mono ?_; omega; omega; (first | omega | (simp only [List.length_append]; omega) | (simp only [List.length_append, str_len]; omega)); rintro e w3 ⟨rfl, hW, hb2, hk2⟩; have hg := hk2.row2 hg hgb (by decide); have hBw := Nat.le_trans hBw hk2.size; have hbel := hbel.trans hb2; have hkw := hkw.trans hk2; have q0 := cell_heap hg 0; have q1 := cell_heap hg 1; have q2 := cell_heap hg 2; have q3 := cell_heap hg 3; have q4 := cell_heap hg 4; have q5 := cell_heap hg 5; have q6 := cell_heap hg 6; have q7 := cell_heap hg 7)
  go_upto_region 4 with (go_at_call 76; refine (wnum_k B b _ _ sqN hW hBw ?_ ?_).mono ?_; omega; (first | omega | (simp only [List.length_append]; omega) | (simp only [List.length_append, str_len]; omega)); rintro e w4 ⟨rfl, hW, hb2, hk2⟩; have hg := hk2.row2 hg hgb (by decide); have hBw := Nat.le_trans hBw hk2.size; have hbel := hbel.trans hb2; have hkw := hkw.trans hk2; have q0 := cell_heap hg 0; have q1 := cell_heap hg 1; have q2 := cell_heap hg 2; have q3 := cell_heap hg 3; have q4 := cell_heap hg 4; have q5 := cell_heap hg 5; have q6 := cell_heap hg 6; have q7 := cell_heap hg 7)
  go_upto_region 5 with (go_at_call 77; refine (wtext_k B b _ _ da hW hBw ?_ ?_).mono ?_; omega; (first | omega | (simp only [List.length_append]; omega) | (simp only [List.length_append, str_len]; omega)); rintro e w5 ⟨rfl, hW, hb2, hk2⟩; have hg := hk2.row2 hg hgb (by decide); have hBw := Nat.le_trans hBw hk2.size; have hbel := hbel.trans hb2; have hkw := hkw.trans hk2; have q0 := cell_heap hg 0; have q1 := cell_heap hg 1; have q2 := cell_heap hg 2; have q3 := cell_heap hg 3; have q4 := cell_heap hg 4; have q5 := cell_heap hg 5; have q6 := cell_heap hg 6; have q7 := cell_heap hg 7)
  go_upto_region 6 with (go_at_call 76; refine (wnum_k B b _ _ thN hW hBw ?_ ?_).mono ?_; omega; (first | omega | (simp only [List.length_append]; omega) | (simp only [List.length_append, str_len]; omega)); rintro e w6 ⟨rfl, hW, hb2, hk2⟩; have hg := hk2.row2 hg hgb (by decide); have hBw := Nat.le_trans hBw hk2.size; have hbel := hbel.trans hb2; have hkw := hkw.trans hk2; have q0 := cell_heap hg 0; have q1 := cell_heap hg 1; have q2 := cell_heap hg 2; have q3 := cell_heap hg 3; have q4 := cell_heap hg 4; have q5 := cell_heap hg 5; have q6 := cell_heap hg 6; have q7 := cell_heap hg 7)
  go_wp2_with (go_at_call 76; refine (wnum_k B b _ _ taN hW hBw ?_ ?_).mono ?_; omega; (first | omega | (simp only [List.length_append]; omega) | (simp only [List.length_append, str_len]; omega)); rintro e w7 ⟨rfl, hW, hb2, hk2⟩; have hg := hk2.row2 hg hgb (by decide); have hBw := Nat.le_trans hBw hk2.size; have hbel := hbel.trans hb2; have hkw := hkw.trans hk2; have q0 := cell_heap hg 0; have q1 := cell_heap hg 1; have q2 := cell_heap hg 2; have q3 := cell_heap hg 3; have q4 := cell_heap hg 4; have q5 := cell_heap hg 5; have q6 := cell_heap hg 6; have q7 := cell_heap hg 7)
  go_returns
  exact ⟨rfl, by unfold pkBy; simpa only [List.append_assoc] using hW, hbel, hkw⟩
end Go.Proofs.Ythipnkbfdkmhaaa
