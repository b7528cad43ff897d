/- Messages as records of fifty cells; headers and packets that are the same. -/
import Derived.Test.YthipnkbfdkmhaaaPf3
import Derived.WalkKit
import Derived.ProofKit
import Derived.Handy
import Derived.Below
import Derived.Lib.Hide
import Derived.IntWalk
import Derived.Outline
import Derived.WalkLawsBesides
import Derived.WalkSpells
namespace Go.Proofs.Ythipnkbfdkmhaaa
open Go.RowKit
attribute [local go_sem] strV
set_option linter.unusedVariables false

structure MsgV where
  kd : Int
  hh : Int
  ht : Int
  rt : H32
  sp : ByteArray
  sc : Int
  dp : ByteArray
  dc : Int
  sq : Int
  da : ByteArray
  th : Int
  ta : Int
  ack : ByteArray
  nx : Int
  he : Int
  pct : Int
  pa : Option Addr
  pn : Nat
  pc : Nat
  pxs : List LeafV
  cct : Int
  ca : Option Addr
  cn : Nat
  cc : Nat
  cxs : List LeafV
def MsgV.back (m : MsgV) : List Value := [.string m.sp, .int .i64 m.sc, .string m.dp, .int .i64 m.dc, .int .i64 m.sq, .string m.da, .int .i64 m.th, .int .i64 m.ta, .string m.ack, .int .i64 m.nx, .int .i64 m.he, .int .i64 m.pct, .slice m.pa m.pn m.pc, .int .i64 m.cct, .slice m.ca m.cn m.cc]
def MsgV.L (m : MsgV) : List Value := [.int .i64 m.kd, .int .i64 m.hh, .int .i64 m.ht] ++ (m.rt.cells ++ m.back)
def MsgV.row (m : MsgV) : Array Value := m.L.toArray
theorem MsgV.L_len (m : MsgV) : m.L.length = 50 := by
  unfold MsgV.L
  rw [List.length_append, List.length_append, H32.cells_len]
  rfl
theorem MsgV.row_size (m : MsgV) : m.row.size = 50 := by
  unfold MsgV.row
  rw [List.size_toArray]
  exact m.L_len
theorem MsgV.at_back (m : MsgV) (k : Nat) : m.row[35 + k]? = m.back[k]? := by
  unfold MsgV.row MsgV.L
  rw [List.getElem?_toArray, List.getElem?_append_right (by simp; omega), List.getElem?_append_right (by rw [H32.cells_len]; simp; omega), H32.cells_len]
  congr 1
  simp
  omega
theorem MsgV.at_front (m : MsgV) : m.row[0]? = some (.int .i64 m.kd) ∧ m.row[1]? = some (.int .i64 m.hh) ∧ m.row[2]? = some (.int .i64 m.ht) := ⟨rfl, rfl, rfl⟩
theorem MsgV.row_one (m : MsgV) : m.row.all (·.oneCell') = true := by
  rw [Array.all_eq_true_iff_forall_mem]
  intro v hv
  unfold MsgV.row MsgV.L at hv
  rw [List.mem_toArray, List.mem_append, List.mem_append] at hv
  rcases hv with h | h | h
  · simp at h
    rcases h with rfl | rfl | rfl <;> rfl
  · exact (Array.all_eq_true_iff_forall_mem.1 (hrow_one m.rt.1)) v (by rw [← H32.row]; simpa using h)
  · unfold MsgV.back at h
    simp at h
    rcases h with rfl | rfl | rfl | rfl | rfl | rfl | rfl | rfl | rfl | rfl | rfl | rfl | rfl | rfl | rfl <;> rfl
/-- What lies behind a message's slices. -/
structure MsgV.ok (m : MsgV) (w : World) : Prop where
  p : LvsAt w m.pa m.pxs
  plen : m.pxs.length = m.pn
  pcap : m.pn ≤ m.pc
  pcM : m.pc ≤ maxLen
  c : LvsAt w m.ca m.cxs
  clen : m.cxs.length = m.cn
  ccap : m.cn ≤ m.cc
  ccM : m.cc ≤ maxLen
  spM : m.sp.size ≤ maxLen
  dpM : m.dp.size ≤ maxLen
theorem MsgV.ok.below {m : MsgV} {w w' : World} (h : m.ok w) (hb : Below w.heap.size w w') : m.ok w' := ⟨h.p.below hb, h.plen, h.pcap, h.pcM, h.c.below hb, h.clen, h.ccap, h.ccM, h.spM, h.dpM⟩
def hdL (h t : Int) (q : H32) : List Value := [.int .i64 h, .int .i64 t] ++ q.cells
theorem hdL_len (h t : Int) (q : H32) : (hdL h t q).length = 34 := by unfold hdL; rw [List.length_append, H32.cells_len]; rfl
/-- The facts of a message's cells in a block. -/
theorem msg_cells {w : World} {g : Nat} {m : MsgV} {e : TypeId} (h : w.heap[g]? = some (.cells m.row e (0, 0))) :
    w.cell? ⟨g, 0, none⟩ = some (.int .i64 m.kd) ∧ w.cell? ⟨g, 1, none⟩ = some (.int .i64 m.hh) ∧ w.cell? ⟨g, 2, none⟩ = some (.int .i64 m.ht) ∧ w.cell? ⟨g, 35, none⟩ = some (.string m.sp) ∧ w.cell? ⟨g, 36, none⟩ = some (.int .i64 m.sc) ∧ w.cell? ⟨g, 37, none⟩ = some (.string m.dp) ∧ w.cell? ⟨g, 38, none⟩ = some (.int .i64 m.dc) ∧ w.cell? ⟨g, 39, none⟩ = some (.int .i64 m.sq) ∧ w.cell? ⟨g, 40, none⟩ = some (.string m.da) ∧ w.cell? ⟨g, 41, none⟩ = some (.int .i64 m.th) ∧ w.cell? ⟨g, 42, none⟩ = some (.int .i64 m.ta) ∧ w.cell? ⟨g, 43, none⟩ = some (.string m.ack) ∧ w.cell? ⟨g, 44, none⟩ = some (.int .i64 m.nx) ∧ w.cell? ⟨g, 45, none⟩ = some (.int .i64 m.he) ∧ w.cell? ⟨g, 46, none⟩ = some (.int .i64 m.pct) ∧ w.cell? ⟨g, 47, none⟩ = some (.slice m.pa m.pn m.pc) ∧ w.cell? ⟨g, 48, none⟩ = some (.int .i64 m.cct) ∧ w.cell? ⟨g, 49, none⟩ = some (.slice m.ca m.cn m.cc) := by
  obtain ⟨a0, a1, a2⟩ := m.at_front
  exact ⟨(cell_heap h 0).trans a0, (cell_heap h 1).trans a1, (cell_heap h 2).trans a2, (cell_heap h 35).trans (m.at_back 0), (cell_heap h 36).trans (m.at_back 1), (cell_heap h 37).trans (m.at_back 2), (cell_heap h 38).trans (m.at_back 3), (cell_heap h 39).trans (m.at_back 4), (cell_heap h 40).trans (m.at_back 5), (cell_heap h 41).trans (m.at_back 6), (cell_heap h 42).trans (m.at_back 7), (cell_heap h 43).trans (m.at_back 8), (cell_heap h 44).trans (m.at_back 9), (cell_heap h 45).trans (m.at_back 10), (cell_heap h 46).trans (m.at_back 11), (cell_heap h 47).trans (m.at_back 12), (cell_heap h 48).trans (m.at_back 13), (cell_heap h 49).trans (m.at_back 14)⟩
theorem msg_header {w : World} {g : Nat} {m : MsgV} {e : TypeId} (h : w.heap[g]? = some (.cells m.row e (0, 0))) : w.rangeAt g 1 (hdL m.hh m.ht m.rt) := fun j v hv => by
  have hj : j < 34 := by have := (List.getElem?_eq_some_iff.1 hv).1; rwa [hdL_len] at this
  rw [cell_heap h, ← hv]
  unfold MsgV.row MsgV.L hdL
  rw [List.getElem?_toArray, show 1 + j = j + 1 by omega]
  rw [show [Value.int .i64 m.kd, .int .i64 m.hh, .int .i64 m.ht] ++ (m.rt.cells ++ m.back) = .int .i64 m.kd :: (([Value.int .i64 m.hh, .int .i64 m.ht] ++ m.rt.cells) ++ m.back) by simp]
  rw [List.getElem?_cons_succ, List.getElem?_append_left (by rw [List.length_append, H32.cells_len]; simp; omega)]
theorem hd_extract (h t : Int) (q : H32) : ((hdL h t q).toArray).extract 2 34 = hrow q.1 := by
  apply Array.ext'
  rw [Array.toList_extract, List.extract_eq_take_drop, ← H32.row]
  unfold hdL
  rw [show ([Value.int .i64 h, .int .i64 t] ++ q.cells) = .int .i64 h :: .int .i64 t :: q.cells from rfl]
  simp only [List.drop_succ_cons, List.drop_zero]
  rw [List.take_of_length_le (by rw [H32.cells_len]; decide)]
theorem run_equal_hash9 (W : World) (q q2 : H32) : (Op.equalIn 9999 23 (.agg (hrow q.1)) (.agg (hrow q2.1))).run Try.prog W = .ok (q.1 == q2.1) W := by
  have h := run_equalIn_bytes (w := W) (P := Try.prog) 9997 23 5 32 .u8 (hrow q.1) (hrow q2.1) (fun i => (q.1.getD i 0).toNat) (fun i => (q2.1.getD i 0).toNat) Try.underlying23 Try.underlying5 (by kernel_rfl) (fun i hi => hrow_at _ _ (by rw [q.2]; exact hi)) (fun i hi => hrow_at _ _ (by rw [q2.2]; exact hi))
  rw [all_bytes 32 _ _ q.2 q2.2] at h
  exact h
def hdB (h t : Int) (q : H32) (h2 t2 : Int) (q2 : H32) : Bool := (h == h2) && (t == t2) && (q.1 == q2.1)
theorem run_equal_hdr (h t : Int) (q : H32) (h2 t2 : Int) (q2 : H32) (W : World) :
    (Op.equalIn 10000 25 (.agg (hdL h t q).toArray) (.agg (hdL h2 t2 q2).toArray)).run Try.prog W = .ok (hdB h t q h2 t2 q2) W := by
  have p0 : (hdL h t q).toArray[0]? = some (.int .i64 h) := rfl
  have p1 : (hdL h t q).toArray[1]? = some (.int .i64 t) := rfl
  have r0 : (hdL h2 t2 q2).toArray[0]? = some (.int .i64 h2) := rfl
  have r1 : (hdL h2 t2 q2).toArray[1]? = some (.int .i64 t2) := rfl
  have p2 := hd_extract h t q
  have r2 := hd_extract h2 t2 q2
  have e2 := fun W => run_equal_hash9 W q q2
  unfold hdB
  generalize (hdL h t q).toArray = X at *
  generalize (hdL h2 t2 q2).toArray = Y at *
  generalize hrow q.1 = X2 at *
  generalize hrow q2.1 = Y2 at *
  cases k0 : (h == h2)
  · simp [go_sem, p0, r0, k0]
  cases k1 : (t == t2)
  · simp [go_sem, p0, r0, k0, p1, r1, k1]
  simp [go_sem, p0, r0, k0, p1, r1, k1, p2, r2, e2]
  by_cases hq : q.1 = q2.1 <;> simp [hq]
def pkB8 (sp sp2 : ByteArray) (sc sc2 : Int) (dp dp2 : ByteArray) (dc dc2 : Int) (sq sq2 : Int) (da da2 : ByteArray) (th th2 : Int) (ta ta2 : Int) : Bool := (sp.toList == sp2.toList) && (sc == sc2) && (dp.toList == dp2.toList) && (dc == dc2) && (sq == sq2) && (da.toList == da2.toList) && (th == th2) && (ta == ta2)
theorem run_equal_pk8 (sp sp2 : ByteArray) (sc sc2 : Int) (dp dp2 : ByteArray) (dc dc2 : Int) (sq sq2 : Int) (da da2 : ByteArray) (th th2 : Int) (ta ta2 : Int) (W : World) :
    (Op.equalIn 10000 29 (.agg #[.string sp, .int .i64 sc, .string dp, .int .i64 dc, .int .i64 sq, .string da, .int .i64 th, .int .i64 ta]) (.agg #[.string sp2, .int .i64 sc2, .string dp2, .int .i64 dc2, .int .i64 sq2, .string da2, .int .i64 th2, .int .i64 ta2])).run Try.prog W = .ok (pkB8 sp sp2 sc sc2 dp dp2 dc dc2 sq sq2 da da2 th th2 ta ta2) W := by
  unfold pkB8
  cases h0 : (sp.toList == sp2.toList)
  · simp [go_sem, h0]
  cases h1 : (sc == sc2)
  · simp [go_sem, h0, h1]
  cases h2 : (dp.toList == dp2.toList)
  · simp [go_sem, h0, h1, h2]
  cases h3 : (dc == dc2)
  · simp [go_sem, h0, h1, h2, h3]
  cases h4 : (sq == sq2)
  · simp [go_sem, h0, h1, h2, h3, h4]
  cases h5 : (da.toList == da2.toList)
  · simp [go_sem, h0, h1, h2, h3, h4, h5]
  cases h6 : (th == th2)
  · simp [go_sem, h0, h1, h2, h3, h4, h5, h6]
  cases h7 : (ta == ta2)
  · simp [go_sem, h0, h1, h2, h3, h4, h5, h6, h7]
  simp [go_sem, h0, h1, h2, h3, h4, h5, h6, h7]
theorem wpList_load_midG {P : Program} {ops : Array Oper} {rest : List Oper} {op : Oper} {a : Act} {w : World} {Q : Exit → Act → World → Prop} (ty : TypeId) (x : Operand) (ho : op.op = .load ty x)
    (b o : Nat) (hx : a.eval x = .pointer (some ⟨b, o, none⟩)) (cs : List Value) (d : TypeDesc) (hc : w.rangeAt b o cs)
    (hu : P.underlying ty = some d) (hd : d.isRow = true) (hi : (P.info? ty).map (·.size) = some cs.length) (hw : Region.wanted op (yielded ops a.tmps) = true)
    (h : wpList P ops Q rest (a.put op.dst (.agg cs.toArray)) w) : wpList P ops Q (op :: rest) a w := by
  unfold wpList
  rw [if_pos hw]
  exact .inl (wp_load_mid ty x ho b o hx cs d hc hu hd hi h)
end Go.Proofs.Ythipnkbfdkmhaaa
