/- Messages out of bytes: how they are read, kind by kind. -/
import Derived.Test.YthipnkbfdkmhaaaPf5
import Derived.BigRegion
import Derived.RegionTactic
import Derived.Deep.Upon
import Derived.Deep.MidRow
import Derived.WalkKit
import Derived.ProofKit
import Derived.Handy
import Derived.Below
import Derived.Lib.Hide
import Derived.IntWalk
import Derived.Outline
import Derived.WalkLawsBesides
import Derived.WalkSpells
namespace Go.Proofs.Ythipnkbfdkmhaaa
open Go.RowKit
attribute [local go_sem] strV
set_option linter.unusedVariables false
/-- What lies behind a message's slices lies in blocks no older than B. -/
def MsgV.heldM (m : MsgV) (w : World) (B : Nat) : Prop := lvsHeld w B m.pa m.pxs ∧ lvsHeld w B m.ca m.cxs
theorem MsgV.heldM.same {m : MsgV} {w w' : World} {B : Nat} (h : m.heldM w B) (h1 : SameT 111 B w w') (h2 : SameT 23 B w w') : m.heldM w' B := ⟨h.1.same h1 h2, h.2.same h1 h2⟩
theorem MsgV.heldM.mono {m : MsgV} {w : World} {B C : Nat} (h : m.heldM w B) (hc : C ≤ B) : m.heldM w C := ⟨h.1.mono hc, h.2.mono hc⟩
theorem MsgV.ok.held {m : MsgV} {w w' : World} {B : Nat} (h : m.ok w) (g : m.heldM w' B) : m.ok w' := ⟨g.1.at, h.plen, h.pcap, h.pcM, g.2.at, h.clen, h.ccap, h.ccM, h.spM, h.dpM⟩
/-- Behind the reading of a message: what it returns, where the reader stands. -/
def msgPost (b : Nat) (w : World) (s : ByteArray) (r : MsgD × Int × Int) (e : Ending) (w' : World) : Prop :=
  ∃ m : MsgV, e = .returned (.agg m.row) ∧ m.ok w' ∧ m.heldM w' w.heap.size ∧ m.d = r.1 ∧ RAt b w' s r.2.1 r.2.2 ∧ Kept b w w'
theorem zero_row : (#[.int .i64 0, .int .i64 0, .int .i64 0, .int .u8 0, .int .u8 0, .int .u8 0, .int .u8 0, .int .u8 0, .int .u8 0, .int .u8 0, .int .u8 0, .int .u8 0, .int .u8 0, .int .u8 0, .int .u8 0, .int .u8 0, .int .u8 0, .int .u8 0, .int .u8 0, .int .u8 0, .int .u8 0, .int .u8 0, .int .u8 0, .int .u8 0, .int .u8 0, .int .u8 0, .int .u8 0, .int .u8 0, .int .u8 0, .int .u8 0, .int .u8 0, .int .u8 0, .int .u8 0, .int .u8 0, .int .u8 0, .string ⟨#[]⟩, .int .i64 0, .string ⟨#[]⟩, .int .i64 0, .int .i64 0, .string ⟨#[]⟩, .int .i64 0, .int .i64 0, .string ⟨#[]⟩, .int .i64 0, .int .i64 0, .int .i64 0, .slice none 0 0, .int .i64 0, .slice none 0 0] : Array Value) = (MsgV.zero 0).row := by kernel_rfl
theorem zero_put (kd : Int) : (MsgV.zero 0).row.setIfInBounds 0 (.int .i64 kd) = ((MsgV.zero kd).front ++ [Value.string ⟨#[]⟩, Value.int .i64 0, Value.string ⟨#[]⟩, Value.int .i64 0, Value.int .i64 0, Value.string ⟨#[]⟩, Value.int .i64 0, Value.int .i64 0, Value.string ⟨#[]⟩, Value.int .i64 0, Value.int .i64 0, Value.int .i64 0, Value.slice none 0 0, Value.int .i64 0, Value.slice none 0 0]).toArray := by
  unfold MsgV.row
  rw [List.setIfInBounds_toArray]
  rfl
theorem back_cell {w : World} {g : Nat} {F B : List Value} {t : TypeId} (hF : F.length = 35) (h : w.heap[g]? = some (.cells (F ++ B).toArray t (0, 0))) (i : Nat) : w.cell? ⟨g, 35 + i, none⟩ = B[i]? := by
  rw [cell_heap h, List.getElem?_toArray, List.getElem?_append_right (by omega), hF, Nat.add_sub_cancel_left]
theorem pkG_size (v : ByteArray) (a e : Int) : (pkG v a e).sp.size ≤ v.size ∧ (pkG v a e).dp.size ≤ v.size := by
  unfold pkG endG
  exact ⟨textG_size _ _ _ _, textG_size _ _ _ _⟩
theorem endG_in {s : ByteArray} {a e : Int} (h : 0 ≤ a ∧ a ≤ s.size) : 0 ≤ (endG s a e).2.2.1 ∧ (endG s a e).2.2.1 ≤ s.size := by
  unfold endG
  exact numG_in (textG_in h)
theorem pkG_in {s : ByteArray} {a e : Int} (h : 0 ≤ a ∧ a ≤ s.size) : 0 ≤ (pkG s a e).a ∧ (pkG s a e).a ≤ s.size := by
  unfold pkG
  exact numG_in (numG_in (textG_in (numG_in (endG_in (endG_in h)))))
theorem hashP_in {s : ByteArray} {a e : Int} (h : 0 ≤ a ∧ a ≤ s.size) : 0 ≤ (hashP s a e).2.1 ∧ (hashP s a e).2.1 ≤ s.size := by
  have q := hashG_in (err := e) h
  rw [hashP_G h.1] at q
  exact q
theorem pfP_in {s : ByteArray} {a e : Int} (h : 0 ≤ a ∧ a ≤ s.size) : 0 ≤ (pfP s a e).2.1 ∧ (pfP s a e).2.1 ≤ s.size := by
  have hl : ∀ (n : Nat) (a e : Int), 0 ≤ a ∧ a ≤ s.size → 0 ≤ (listP hashP n s a e).2.1 ∧ (listP hashP n s a e).2.1 ≤ s.size := by
    intro n
    induction n with
    | zero => intro a e h; exact h
    | succ n ih => intro a e h; exact ih _ _ (hashP_in h)
  have hf : ∀ (a e : Int), 0 ≤ a ∧ a ≤ s.size → 0 ≤ (leafP s a e).2.1 ∧ (leafP s a e).2.1 ≤ s.size := fun a e h => hl _ _ _ (countG_in (numG_in (textG_in (textG_in h))))
  have hm : ∀ (n : Nat) (a e : Int), 0 ≤ a ∧ a ≤ s.size → 0 ≤ (listP leafP n s a e).2.1 ∧ (listP leafP n s a e).2.1 ≤ s.size := by
    intro n
    induction n with
    | zero => intro a e h; exact h
    | succ n ih => intro a e h; exact ih _ _ (hf _ _ h)
  exact hm _ _ _ (countG_in (numG_in h))
theorem setCells_oth {g j : Nat} : ∀ (vs : List Value) (o : Nat) {w : World}, g ≠ j → (w.setCells g o vs).heap[j]? = w.heap[j]?
  | [], _, _, _ => rfl
  | v :: r, o, w, hne => by
    show ((w.setCell ⟨g, o, none⟩ v).setCells g (o + 1) r).heap[j]? = _
    rw [setCells_oth r (o + 1) hne]
    exact row_oth' w g o j v (Ne.symm hne)
theorem setCells_size {g : Nat} : ∀ (vs : List Value) (o : Nat) (w : World), (w.setCells g o vs).heap.size = w.heap.size
  | [], _, _ => rfl
  | v :: r, o, w => by
    show ((w.setCell ⟨g, o, none⟩ v).setCells g (o + 1) r).heap.size = _
    rw [setCells_size r (o + 1), World.size_setCell]
theorem RAt.cells {b g : Nat} {w : World} {s : ByteArray} {A E : Int} (h : RAt b w s A E) (hne : g ≠ b) (o : Nat) (vs : List Value) : RAt b (w.setCells g o vs) s A E := by
  unfold RAt at h ⊢
  rw [setCells_oth vs o hne]; exact h
theorem Kept.cellsFar {b g : Nat} {w : World} (hg : w.heap.size ≤ g) (vs : List Value) : ∀ (o : Nat) {w1 : World}, Kept b w w1 → Kept b w (w1.setCells g o vs) := by
  induction vs with
  | nil => intro o w1 h; exact h
  | cons v r ih =>
    intro o w1 h
    exact ih (o + 1) (h.setFar hg)
theorem there_row {w : World} {g o n : Nat} {cur : Array Value} {e : TypeId} (h : w.heap[g]? = some (.cells cur e (0, 0))) (hn : o + n ≤ cur.size) : w.there g o n := fun i hi => by
  refine ⟨?_, frozen_heap h (o + i)⟩
  rw [cell_heap h, Array.getElem?_eq_getElem (by omega)]
  rfl
theorem root_put {w : World} {g : Nat} {m : MsgV} {q : H32} (h : w.heap[g]? = some (.cells m.row 34 (0, 0))) : (w.setCells g 3 (hrow q.1).toList).heap[g]? = some (.cells ({ m with rt := q } : MsgV).row 34 (0, 0)) := by
  have e : (hrow q.1).toList = q.cells := rfl
  rw [e, setCells_row g _ (0, 0) q.cells 3 w m.row h (by rw [H32.cells_len, MsgV.row_size]; omega)]
  congr 2
  unfold MsgV.row
  apply congrArg List.toArray
  rw [List.toList_toArray, H32.cells_len]
  unfold MsgV.L
  rw [List.take_left' (by rfl), ← List.append_assoc [Value.int .i64 m.kd, .int .i64 m.hh, .int .i64 m.ht] m.rt.cells, List.drop_left' (by rw [List.length_append, H32.cells_len]; rfl), List.append_assoc]
  rfl
set_option maxRecDepth 100000 in
set_option maxHeartbeats 8000000 in
theorem msgRead_1 (b : Nat) (w : World) (s : ByteArray) (at_ err : Int) (a1 e1 : Int) (h1 : numG s at_ err 1 5 = (1, a1, e1)) (h : RAt b w s at_ err) (hs : s.size ≤ 1000000000) (hp : 0 ≤ at_ ∧ at_ ≤ s.size) :
    Calls Try.prog 57 #[.pointer (some ⟨b, 0, none⟩)] w fun e w' => msgPost b w s (msgP s at_ err) e w' := by
  have p1 := numG_in (err := err) (least := 1) (most := 5) hp
  rw [h1] at p1
  simp only at p1
  have p2 := numG_in (err := e1) (least := 1) (most := 1099511627776) p1
  obtain ⟨⟨hh, a2, e2⟩, h2⟩ : ∃ t, numG s a1 e1 1 1099511627776 = t := ⟨_, rfl⟩
  rw [h2] at p2
  simp only at p2
  have C2 := fun W h => rnum_all b W s a1 e1 1 1099511627776 h hs
  simp only [h2] at C2
  have p3 := numG_in (err := e2) (least := 0) (most := 1099511627776) p2
  obtain ⟨⟨ht, a3, e3⟩, h3⟩ : ∃ t, numG s a2 e2 0 1099511627776 = t := ⟨_, rfl⟩
  rw [h3] at p3
  simp only at p3
  have C3 := fun W h => rnum_all b W s a2 e2 0 1099511627776 h hs
  simp only [h3] at C3
  have C4 := fun W h => rhash_all b W s a3 e3 h hs p3
  rw [hashP_G p3.1] at C4
  have p4 := hashP_in (e := e3) p3
  obtain ⟨⟨rt, a4, e4⟩, h4⟩ : ∃ t, hashP s a3 e3 = t := ⟨_, rfl⟩
  rw [h4] at p4
  simp only at p4
  simp only [h4] at C4
  have hE : msgP s at_ err = (mk1 (hh, ht, rt), a4, e4) := by
    unfold msgP mapP seqP nP
    simp only [h1]
    unfold bodyP
    rw [if_pos rfl]
    unfold mapP seqP nP
    simp only [h2, h3, h4]
  rw [hE]
  have C1 := fun W h => rnum_all b W s at_ err 1 5 h hs
  simp only [h1] at C1
  clear hE h1 h2 h3 h4
  have hlt := h.lt
  have hz0 := al2_0 w (.cells #[.int .i64 0, .int .i64 0, .int .i64 0, .int .u8 0, .int .u8 0, .int .u8 0, .int .u8 0, .int .u8 0, .int .u8 0, .int .u8 0, .int .u8 0, .int .u8 0, .int .u8 0, .int .u8 0, .int .u8 0, .int .u8 0, .int .u8 0, .int .u8 0, .int .u8 0, .int .u8 0, .int .u8 0, .int .u8 0, .int .u8 0, .int .u8 0, .int .u8 0, .int .u8 0, .int .u8 0, .int .u8 0, .int .u8 0, .int .u8 0, .int .u8 0, .int .u8 0, .int .u8 0, .int .u8 0, .int .u8 0, .string ⟨#[]⟩, .int .i64 0, .string ⟨#[]⟩, .int .i64 0, .int .i64 0, .string ⟨#[]⟩, .int .i64 0, .int .i64 0, .string ⟨#[]⟩, .int .i64 0, .int .i64 0, .int .i64 0, .slice none 0 0, .int .i64 0, .slice none 0 0] 34) (.cells #[.int .i64 0, .int .i64 0, .int .i64 0, .int .u8 0, .int .u8 0, .int .u8 0, .int .u8 0, .int .u8 0, .int .u8 0, .int .u8 0, .int .u8 0, .int .u8 0, .int .u8 0, .int .u8 0, .int .u8 0, .int .u8 0, .int .u8 0, .int .u8 0, .int .u8 0, .int .u8 0, .int .u8 0, .int .u8 0, .int .u8 0, .int .u8 0, .int .u8 0, .int .u8 0, .int .u8 0, .int .u8 0, .int .u8 0, .int .u8 0, .int .u8 0, .int .u8 0, .int .u8 0, .int .u8 0, .int .u8 0, .string ⟨#[]⟩, .int .i64 0, .string ⟨#[]⟩, .int .i64 0, .int .i64 0, .string ⟨#[]⟩, .int .i64 0, .int .i64 0, .string ⟨#[]⟩, .int .i64 0, .int .i64 0, .int .i64 0, .slice none 0 0, .int .i64 0, .slice none 0 0] 34)
  have hg0 := al2_1 w (.cells #[.int .i64 0, .int .i64 0, .int .i64 0, .int .u8 0, .int .u8 0, .int .u8 0, .int .u8 0, .int .u8 0, .int .u8 0, .int .u8 0, .int .u8 0, .int .u8 0, .int .u8 0, .int .u8 0, .int .u8 0, .int .u8 0, .int .u8 0, .int .u8 0, .int .u8 0, .int .u8 0, .int .u8 0, .int .u8 0, .int .u8 0, .int .u8 0, .int .u8 0, .int .u8 0, .int .u8 0, .int .u8 0, .int .u8 0, .int .u8 0, .int .u8 0, .int .u8 0, .int .u8 0, .int .u8 0, .int .u8 0, .string ⟨#[]⟩, .int .i64 0, .string ⟨#[]⟩, .int .i64 0, .int .i64 0, .string ⟨#[]⟩, .int .i64 0, .int .i64 0, .string ⟨#[]⟩, .int .i64 0, .int .i64 0, .int .i64 0, .slice none 0 0, .int .i64 0, .slice none 0 0] 34) (.cells #[.int .i64 0, .int .i64 0, .int .i64 0, .int .u8 0, .int .u8 0, .int .u8 0, .int .u8 0, .int .u8 0, .int .u8 0, .int .u8 0, .int .u8 0, .int .u8 0, .int .u8 0, .int .u8 0, .int .u8 0, .int .u8 0, .int .u8 0, .int .u8 0, .int .u8 0, .int .u8 0, .int .u8 0, .int .u8 0, .int .u8 0, .int .u8 0, .int .u8 0, .int .u8 0, .int .u8 0, .int .u8 0, .int .u8 0, .int .u8 0, .int .u8 0, .int .u8 0, .int .u8 0, .int .u8 0, .int .u8 0, .string ⟨#[]⟩, .int .i64 0, .string ⟨#[]⟩, .int .i64 0, .int .i64 0, .string ⟨#[]⟩, .int .i64 0, .int .i64 0, .string ⟨#[]⟩, .int .i64 0, .int .i64 0, .int .i64 0, .slice none 0 0, .int .i64 0, .slice none 0 0] 34)
  have hbA := al2_below w (.cells #[.int .i64 0, .int .i64 0, .int .i64 0, .int .u8 0, .int .u8 0, .int .u8 0, .int .u8 0, .int .u8 0, .int .u8 0, .int .u8 0, .int .u8 0, .int .u8 0, .int .u8 0, .int .u8 0, .int .u8 0, .int .u8 0, .int .u8 0, .int .u8 0, .int .u8 0, .int .u8 0, .int .u8 0, .int .u8 0, .int .u8 0, .int .u8 0, .int .u8 0, .int .u8 0, .int .u8 0, .int .u8 0, .int .u8 0, .int .u8 0, .int .u8 0, .int .u8 0, .int .u8 0, .int .u8 0, .int .u8 0, .string ⟨#[]⟩, .int .i64 0, .string ⟨#[]⟩, .int .i64 0, .int .i64 0, .string ⟨#[]⟩, .int .i64 0, .int .i64 0, .string ⟨#[]⟩, .int .i64 0, .int .i64 0, .int .i64 0, .slice none 0 0, .int .i64 0, .slice none 0 0] 34) (.cells #[.int .i64 0, .int .i64 0, .int .i64 0, .int .u8 0, .int .u8 0, .int .u8 0, .int .u8 0, .int .u8 0, .int .u8 0, .int .u8 0, .int .u8 0, .int .u8 0, .int .u8 0, .int .u8 0, .int .u8 0, .int .u8 0, .int .u8 0, .int .u8 0, .int .u8 0, .int .u8 0, .int .u8 0, .int .u8 0, .int .u8 0, .int .u8 0, .int .u8 0, .int .u8 0, .int .u8 0, .int .u8 0, .int .u8 0, .int .u8 0, .int .u8 0, .int .u8 0, .int .u8 0, .int .u8 0, .int .u8 0, .string ⟨#[]⟩, .int .i64 0, .string ⟨#[]⟩, .int .i64 0, .int .i64 0, .string ⟨#[]⟩, .int .i64 0, .int .i64 0, .string ⟨#[]⟩, .int .i64 0, .int .i64 0, .int .i64 0, .slice none 0 0, .int .i64 0, .slice none 0 0] 34)
  go_enter Try.func57, Try.ntmps57
  go_upto_region 2 with fail
  refine wp_nameE _ (fun W2 hW => ?_)
  have hZ : W2.heap[w.heap.size]? = some (.cells (MsgV.zero 0).row 34 (0, 0)) := by rw [hW, ← zero_row]; exact hz0
  have hG : W2.heap[w.heap.size + 1]? = some (.cells (MsgV.zero 0).row 34 (0, 0)) := by rw [hW, ← zero_row]; exact hg0
  have hb1 : Below w.heap.size w W2 := by rw [hW]; exact hbA
  have hR := h.below hb1 hlt
  have hK : Kept b w W2 := Kept.of hb1
  have hzb : w.heap.size ≠ b := by omega
  have hgl : w.heap.size + 1 < W2.heap.size := (Array.getElem?_eq_some_iff.1 hG).1
  obtain ⟨g, hg⟩ : ∃ g, w.heap.size + 1 = g := ⟨_, rfl⟩
  simp only [hg] at hG hgl ⊢
  have hgb : g ≠ b := by omega
  have hgz : g ≠ w.heap.size := by omega
  have hwg : w.heap.size ≤ g := by omega
  have hzg : w.heap.size < g := by omega
  have hblg : b < g := by omega
  clear hW hz0 hg0 hbA hb1 h hg
  go_upto_region 3 with (first | (go_at_call 53; refine (hasAck_any _ _).mono ?_; rintro e w8 ⟨rfl, rfl⟩) | (go_at_call 94; refine (hasNext_any _ _).mono ?_; rintro e w8 ⟨rfl, rfl⟩) | (go_at_call 96; refine (hasClose_any _ _).mono ?_; rintro e w8 ⟨rfl, rfl⟩) | (go_at_call 78; refine (C1 _ hR).mono ?_; rintro e w1 ⟨rfl, hR, hk⟩; have hG := hk.row5 hG hgb; have hZ := hk.row5 hZ hzb; have hgl := Nat.lt_of_lt_of_le hgl hk.size; have hK := hK.trans hk; have qk : World.cell? _ ⟨g, 0, none⟩ = some (Value.int .i64 0) := (cell_heap hG 0).trans rfl; have fk := frozen_heap hG 0))
  refine wp_nameE _ (fun W3 hX => ?_)
  have hR : RAt b W3 s a1 e1 := by rw [hX]; exact hR.put hgb _
  have hZ : W3.heap[w.heap.size]? = some (.cells (MsgV.zero 0).row 34 (0, 0)) := by rw [hX]; exact row_oth hZ hgz
  have hK : Kept b w W3 := by rw [hX]; exact hK.setFar hwg
  have hG : W3.heap[g]? = some (.cells ((MsgV.zero 1).front ++ [Value.string ⟨#[]⟩, Value.int .i64 0, Value.string ⟨#[]⟩, Value.int .i64 0, Value.int .i64 0, Value.string ⟨#[]⟩, Value.int .i64 0, Value.int .i64 0, Value.string ⟨#[]⟩, Value.int .i64 0, Value.int .i64 0, Value.int .i64 0, Value.slice none 0 0, Value.int .i64 0, Value.slice none 0 0]).toArray 34 (0, 0)) := by rw [hX, ← zero_put 1]; exact row_put5 hG
  have hgl : g < W3.heap.size := (Array.getElem?_eq_some_iff.1 hG).1
  clear hX qk fk C1
  have hF : (MsgV.zero 1).front.length = 35 := MsgV.front_len _
  have q0 : W3.cell? ⟨g, 0, none⟩ = some (.int .i64 1) := (cell_heap hG 0).trans rfl
  have hG : W3.heap[g]? = some (.cells (⟨1, 0, 0, zeroM, ⟨#[]⟩, 0, ⟨#[]⟩, 0, 0, ⟨#[]⟩, 0, 0, ⟨#[]⟩, 0, 0, 0, none, 0, 0, [], 0, none, 0, 0, []⟩ : MsgV).row 34 (0, 0)) := by rw [hG, MsgV.row_split]; rfl
  go_upto_region 5 with (first | (go_at_call 53; refine (hasAck_any _ _).mono ?_; rintro e w8 ⟨rfl, rfl⟩) | (go_at_call 94; refine (hasNext_any _ _).mono ?_; rintro e w8 ⟨rfl, rfl⟩) | (go_at_call 96; refine (hasClose_any _ _).mono ?_; rintro e w8 ⟨rfl, rfl⟩) | (go_at_call 78; refine (C2 _ hR).mono ?_; rintro e w1 ⟨rfl, hR, hk⟩; have hG := hk.row5 hG hgb; have hZ := hk.row5 hZ hzb; have hgl := Nat.lt_of_lt_of_le hgl hk.size; have hK := hK.trans hk; have fk := frozen_heap hG 1; have mk : World.cell? _ ⟨g, 1, none⟩ = some (Value.int .i64 0) := (cell_heap hG 1).trans rfl))
  refine wp_nameE _ (fun W4 hX => ?_)
  have hR : RAt b W4 s a2 e2 := by rw [hX]; exact hR.put hgb _
  have hZ : W4.heap[w.heap.size]? = some (.cells (MsgV.zero 0).row 34 (0, 0)) := by rw [hX]; exact row_oth hZ hgz
  have hK : Kept b w W4 := by rw [hX]; exact hK.setFar hwg
  have hG : W4.heap[g]? = some (.cells (⟨1, hh, 0, zeroM, ⟨#[]⟩, 0, ⟨#[]⟩, 0, 0, ⟨#[]⟩, 0, 0, ⟨#[]⟩, 0, 0, 0, none, 0, 0, [], 0, none, 0, 0, []⟩ : MsgV).row 34 (0, 0)) := by rw [hX]; refine (row_put5 hG).trans ?_; unfold MsgV.row; rw [List.setIfInBounds_toArray]; rfl
  have hgl : g < W4.heap.size := (Array.getElem?_eq_some_iff.1 hG).1
  clear hX fk mk C2
  go_upto_region 6 with (first | (go_at_call 53; refine (hasAck_any _ _).mono ?_; rintro e w8 ⟨rfl, rfl⟩) | (go_at_call 94; refine (hasNext_any _ _).mono ?_; rintro e w8 ⟨rfl, rfl⟩) | (go_at_call 96; refine (hasClose_any _ _).mono ?_; rintro e w8 ⟨rfl, rfl⟩) | (go_at_call 78; refine (C3 _ hR).mono ?_; rintro e w1 ⟨rfl, hR, hk⟩; have hG := hk.row5 hG hgb; have hZ := hk.row5 hZ hzb; have hgl := Nat.lt_of_lt_of_le hgl hk.size; have hK := hK.trans hk; have fk := frozen_heap hG 2; have mk : World.cell? _ ⟨g, 2, none⟩ = some (Value.int .i64 0) := (cell_heap hG 2).trans rfl))
  refine wp_nameE _ (fun W5 hX => ?_)
  have hR : RAt b W5 s a3 e3 := by rw [hX]; exact hR.put hgb _
  have hZ : W5.heap[w.heap.size]? = some (.cells (MsgV.zero 0).row 34 (0, 0)) := by rw [hX]; exact row_oth hZ hgz
  have hK : Kept b w W5 := by rw [hX]; exact hK.setFar hwg
  have hG : W5.heap[g]? = some (.cells (⟨1, hh, ht, zeroM, ⟨#[]⟩, 0, ⟨#[]⟩, 0, 0, ⟨#[]⟩, 0, 0, ⟨#[]⟩, 0, 0, 0, none, 0, 0, [], 0, none, 0, 0, []⟩ : MsgV).row 34 (0, 0)) := by rw [hX]; refine (row_put5 hG).trans ?_; unfold MsgV.row; rw [List.setIfInBounds_toArray]; rfl
  have hgl : g < W5.heap.size := (Array.getElem?_eq_some_iff.1 hG).1
  clear hX fk mk C3
  have hone := hrow_one rt.1
  have hrs : (hrow rt.1).size = 32 := by rw [hrow_size]; exact rt.2
  go_upto_region 7 with (first | (go_at_call 53; refine (hasAck_any _ _).mono ?_; rintro e w8 ⟨rfl, rfl⟩) | (go_at_call 94; refine (hasNext_any _ _).mono ?_; rintro e w8 ⟨rfl, rfl⟩) | (go_at_call 96; refine (hasClose_any _ _).mono ?_; rintro e w8 ⟨rfl, rfl⟩) | (go_at_call 101; refine (C4 _ hR).mono ?_; rintro e w1 ⟨rfl, hR, hk⟩; have hG := hk.row5 hG hgb; have hZ := hk.row5 hZ hzb; have hgl := Nat.lt_of_lt_of_le hgl hk.size; have hK := hK.trans hk; have hth : World.there _ g 3 (hrow rt.1).size := (by rw [hrs]; exact there_row hG (by rw [MsgV.row_size]; omega))) | (refine wpList_store_mid rfl 23 (.tmp 21) (.tmp 19) rfl g 3 (hrow rt.1) rfl rfl hth (by rw [hrs]; kernel_rfl) hone ?_))
  refine wp_nameE _ (fun W6 hX => ?_)
  have hR : RAt b W6 s a4 e4 := by rw [hX]; exact RAt.cells hR hgb _ _
  have hZ : W6.heap[w.heap.size]? = some (.cells (MsgV.zero 0).row 34 (0, 0)) := by rw [hX, setCells_oth _ _ hgz]; exact hZ
  have hK : Kept b w W6 := by rw [hX]; exact hK.cellsFar hwg _ _
  have hG : W6.heap[g]? = some (.cells (⟨1, hh, ht, rt, ⟨#[]⟩, 0, ⟨#[]⟩, 0, 0, ⟨#[]⟩, 0, 0, ⟨#[]⟩, 0, 0, 0, none, 0, 0, [], 0, none, 0, 0, []⟩ : MsgV).row 34 (0, 0)) := by rw [hX]; exact root_put hG
  have hgl : g < W6.heap.size := (Array.getElem?_eq_some_iff.1 hG).1
  clear hX hth C4
  obtain ⟨RW, hRW⟩ : ∃ q : MsgV, (⟨1, hh, ht, rt, ⟨#[]⟩, 0, ⟨#[]⟩, 0, 0, ⟨#[]⟩, 0, 0, ⟨#[]⟩, 0, 0, 0, none, 0, 0, [], 0, none, 0, 0, []⟩ : MsgV) = q := ⟨_, rfl⟩
  rw [hRW] at hG
  have hrg := rangeAt_row5 hG
  have HRW := Lib.hid hRW
  clear hRW
  go_wp2_with (first | (go_at_call 53; refine (hasAck_any _ _).mono ?_; rintro e w8 ⟨rfl, rfl⟩) | (go_at_call 94; refine (hasNext_any _ _).mono ?_; rintro e w8 ⟨rfl, rfl⟩) | (go_at_call 96; refine (hasClose_any _ _).mono ?_; rintro e w8 ⟨rfl, rfl⟩) | (refine wpList_load_mid rfl 34 (.tmp 3) rfl g 0 rfl RW.row.toList _ hrg Try.underlying34 rfl (msg_info _) ?_; rw [Array.toArray_toList]) | (refine wpList_storeRowTo (Z := RW.row) rfl (.tmp 2) (.tmp 22) 34 rfl (by rw [MsgV.row_size]; kernel_rfl) rfl (by rfl) hZ (by rw [MsgV.row_size, MsgV.row_size]) (MsgV.row_one _) ?_))
  have hZ2 := setRow_heap _ _ _ RW.row _ _ hZ
  have hrd := run_loadVar_mid (P := Try.prog) _ w.heap.size 0 34 RW.row.toList _ (rangeAt_row5 hZ2) Try.underlying34 rfl (msg_info _)
  rw [Array.toArray_toList] at hrd
  refine bodyPost_ret (v := .agg RW.row) ?_ rfl ?_
  · simp [results, Try.results57, asAddr]
    exact hrd
  have hRW := HRW.out
  subst hRW
  exact ⟨_, rfl, ⟨LvsAt.nil _ _, rfl, Nat.le_refl _, Nat.zero_le _, LvsAt.nil _ _, rfl, Nat.le_refl _, Nat.zero_le _, Nat.zero_le _, Nat.zero_le _⟩, ⟨lvsHeld.nil _ _, lvsHeld.nil _ _⟩, rfl, hR.setRow hzb _, hK.setRow (Nat.le_refl _) _⟩
set_option maxRecDepth 100000 in
set_option maxHeartbeats 8000000 in
theorem msgRead_3 (b : Nat) (w : World) (s : ByteArray) (at_ err : Int) (a1 e1 : Int) (h1 : numG s at_ err 1 5 = (3, a1, e1)) (h : RAt b w s at_ err) (hs : s.size ≤ 1000000000) (hp : 0 ≤ at_ ∧ at_ ≤ s.size) :
    Calls Try.prog 57 #[.pointer (some ⟨b, 0, none⟩)] w fun e w' => msgPost b w s (msgP s at_ err) e w' := by
  have p1 := numG_in (err := err) (least := 1) (most := 5) hp
  rw [h1] at p1
  simp only at p1
  have C2 := fun W h => pkRead_any b W s a1 e1 h hs
  have p2 := pkG_in (e := e1) p1
  have z2 := pkG_size s a1 e1
  obtain ⟨⟨⟨⟨sp, sc⟩, ⟨dp, dc⟩, sq, da, th, ta⟩, a2, e2⟩, h2⟩ : ∃ t, pkP s a1 e1 = t := ⟨_, rfl⟩
  have gq := h2
  rw [pkP_eq] at gq
  simp only [Prod.mk.injEq] at gq
  obtain ⟨⟨⟨g1, g2⟩, ⟨g3, g4⟩, g5, g6, g7, g8⟩, g9, g10⟩ := gq
  simp only [g1, g2, g3, g4, g5, g6, g7, g8, g9, g10] at C2
  rw [g9] at p2
  rw [g1, g3] at z2
  clear g1 g2 g3 g4 g5 g6 g7 g8 g9 g10
  have zs := z2.1
  have zd := z2.2
  clear z2
  have p3 := textG_in (err := e2) (most := 32) p2
  obtain ⟨⟨ack, a3, e3⟩, h3⟩ : ∃ t, textG s a2 e2 32 = t := ⟨_, rfl⟩
  rw [h3] at p3
  simp only at p3
  have C3 := fun W h => rtext_all b W s a2 e2 32 h hs
  simp only [h3] at C3
  have p4 := numG_in (err := e3) (least := 1) (most := 1099511627776) p3
  obtain ⟨⟨he, a4, e4⟩, h4⟩ : ∃ t, numG s a3 e3 1 1099511627776 = t := ⟨_, rfl⟩
  rw [h4] at p4
  simp only at p4
  have C4 := fun W h => rnum_all b W s a3 e3 1 1099511627776 h hs
  simp only [h4] at C4
  have C5 := fun W h => pfRead_any b W s a4 e4 h hs p4
  obtain ⟨⟨⟨pct, pl⟩, a5, e5⟩, h5⟩ : ∃ t, pfP s a4 e4 = t := ⟨_, rfl⟩
  simp only [h5] at C5
  have hE : msgP s at_ err = (mk3 (((sp, sc), (dp, dc), sq, da, th, ta), ack, he, ⟨pct, pl⟩), a5, e5) := by
    unfold msgP mapP seqP nP
    simp only [h1]
    unfold bodyP
    rw [if_neg (by decide), if_pos rfl]
    unfold mapP seqP nP tP
    simp only [h2, h3, h4, h5]
  rw [hE]
  have C1 := fun W h => rnum_all b W s at_ err 1 5 h hs
  simp only [h1] at C1
  clear hE h1 h2 h3 h4 h5
  have hlt := h.lt
  have hz0 := al2_0 w (.cells #[.int .i64 0, .int .i64 0, .int .i64 0, .int .u8 0, .int .u8 0, .int .u8 0, .int .u8 0, .int .u8 0, .int .u8 0, .int .u8 0, .int .u8 0, .int .u8 0, .int .u8 0, .int .u8 0, .int .u8 0, .int .u8 0, .int .u8 0, .int .u8 0, .int .u8 0, .int .u8 0, .int .u8 0, .int .u8 0, .int .u8 0, .int .u8 0, .int .u8 0, .int .u8 0, .int .u8 0, .int .u8 0, .int .u8 0, .int .u8 0, .int .u8 0, .int .u8 0, .int .u8 0, .int .u8 0, .int .u8 0, .string ⟨#[]⟩, .int .i64 0, .string ⟨#[]⟩, .int .i64 0, .int .i64 0, .string ⟨#[]⟩, .int .i64 0, .int .i64 0, .string ⟨#[]⟩, .int .i64 0, .int .i64 0, .int .i64 0, .slice none 0 0, .int .i64 0, .slice none 0 0] 34) (.cells #[.int .i64 0, .int .i64 0, .int .i64 0, .int .u8 0, .int .u8 0, .int .u8 0, .int .u8 0, .int .u8 0, .int .u8 0, .int .u8 0, .int .u8 0, .int .u8 0, .int .u8 0, .int .u8 0, .int .u8 0, .int .u8 0, .int .u8 0, .int .u8 0, .int .u8 0, .int .u8 0, .int .u8 0, .int .u8 0, .int .u8 0, .int .u8 0, .int .u8 0, .int .u8 0, .int .u8 0, .int .u8 0, .int .u8 0, .int .u8 0, .int .u8 0, .int .u8 0, .int .u8 0, .int .u8 0, .int .u8 0, .string ⟨#[]⟩, .int .i64 0, .string ⟨#[]⟩, .int .i64 0, .int .i64 0, .string ⟨#[]⟩, .int .i64 0, .int .i64 0, .string ⟨#[]⟩, .int .i64 0, .int .i64 0, .int .i64 0, .slice none 0 0, .int .i64 0, .slice none 0 0] 34)
  have hg0 := al2_1 w (.cells #[.int .i64 0, .int .i64 0, .int .i64 0, .int .u8 0, .int .u8 0, .int .u8 0, .int .u8 0, .int .u8 0, .int .u8 0, .int .u8 0, .int .u8 0, .int .u8 0, .int .u8 0, .int .u8 0, .int .u8 0, .int .u8 0, .int .u8 0, .int .u8 0, .int .u8 0, .int .u8 0, .int .u8 0, .int .u8 0, .int .u8 0, .int .u8 0, .int .u8 0, .int .u8 0, .int .u8 0, .int .u8 0, .int .u8 0, .int .u8 0, .int .u8 0, .int .u8 0, .int .u8 0, .int .u8 0, .int .u8 0, .string ⟨#[]⟩, .int .i64 0, .string ⟨#[]⟩, .int .i64 0, .int .i64 0, .string ⟨#[]⟩, .int .i64 0, .int .i64 0, .string ⟨#[]⟩, .int .i64 0, .int .i64 0, .int .i64 0, .slice none 0 0, .int .i64 0, .slice none 0 0] 34) (.cells #[.int .i64 0, .int .i64 0, .int .i64 0, .int .u8 0, .int .u8 0, .int .u8 0, .int .u8 0, .int .u8 0, .int .u8 0, .int .u8 0, .int .u8 0, .int .u8 0, .int .u8 0, .int .u8 0, .int .u8 0, .int .u8 0, .int .u8 0, .int .u8 0, .int .u8 0, .int .u8 0, .int .u8 0, .int .u8 0, .int .u8 0, .int .u8 0, .int .u8 0, .int .u8 0, .int .u8 0, .int .u8 0, .int .u8 0, .int .u8 0, .int .u8 0, .int .u8 0, .int .u8 0, .int .u8 0, .int .u8 0, .string ⟨#[]⟩, .int .i64 0, .string ⟨#[]⟩, .int .i64 0, .int .i64 0, .string ⟨#[]⟩, .int .i64 0, .int .i64 0, .string ⟨#[]⟩, .int .i64 0, .int .i64 0, .int .i64 0, .slice none 0 0, .int .i64 0, .slice none 0 0] 34)
  have hbA := al2_below w (.cells #[.int .i64 0, .int .i64 0, .int .i64 0, .int .u8 0, .int .u8 0, .int .u8 0, .int .u8 0, .int .u8 0, .int .u8 0, .int .u8 0, .int .u8 0, .int .u8 0, .int .u8 0, .int .u8 0, .int .u8 0, .int .u8 0, .int .u8 0, .int .u8 0, .int .u8 0, .int .u8 0, .int .u8 0, .int .u8 0, .int .u8 0, .int .u8 0, .int .u8 0, .int .u8 0, .int .u8 0, .int .u8 0, .int .u8 0, .int .u8 0, .int .u8 0, .int .u8 0, .int .u8 0, .int .u8 0, .int .u8 0, .string ⟨#[]⟩, .int .i64 0, .string ⟨#[]⟩, .int .i64 0, .int .i64 0, .string ⟨#[]⟩, .int .i64 0, .int .i64 0, .string ⟨#[]⟩, .int .i64 0, .int .i64 0, .int .i64 0, .slice none 0 0, .int .i64 0, .slice none 0 0] 34) (.cells #[.int .i64 0, .int .i64 0, .int .i64 0, .int .u8 0, .int .u8 0, .int .u8 0, .int .u8 0, .int .u8 0, .int .u8 0, .int .u8 0, .int .u8 0, .int .u8 0, .int .u8 0, .int .u8 0, .int .u8 0, .int .u8 0, .int .u8 0, .int .u8 0, .int .u8 0, .int .u8 0, .int .u8 0, .int .u8 0, .int .u8 0, .int .u8 0, .int .u8 0, .int .u8 0, .int .u8 0, .int .u8 0, .int .u8 0, .int .u8 0, .int .u8 0, .int .u8 0, .int .u8 0, .int .u8 0, .int .u8 0, .string ⟨#[]⟩, .int .i64 0, .string ⟨#[]⟩, .int .i64 0, .int .i64 0, .string ⟨#[]⟩, .int .i64 0, .int .i64 0, .string ⟨#[]⟩, .int .i64 0, .int .i64 0, .int .i64 0, .slice none 0 0, .int .i64 0, .slice none 0 0] 34)
  go_enter Try.func57, Try.ntmps57
  go_upto_region 2 with fail
  refine wp_nameE _ (fun W2 hW => ?_)
  have hZ : W2.heap[w.heap.size]? = some (.cells (MsgV.zero 0).row 34 (0, 0)) := by rw [hW, ← zero_row]; exact hz0
  have hG : W2.heap[w.heap.size + 1]? = some (.cells (MsgV.zero 0).row 34 (0, 0)) := by rw [hW, ← zero_row]; exact hg0
  have hb1 : Below w.heap.size w W2 := by rw [hW]; exact hbA
  have hR := h.below hb1 hlt
  have hK : Kept b w W2 := Kept.of hb1
  have hzb : w.heap.size ≠ b := by omega
  have hgl : w.heap.size + 1 < W2.heap.size := (Array.getElem?_eq_some_iff.1 hG).1
  obtain ⟨g, hg⟩ : ∃ g, w.heap.size + 1 = g := ⟨_, rfl⟩
  simp only [hg] at hG hgl ⊢
  have hgb : g ≠ b := by omega
  have hgz : g ≠ w.heap.size := by omega
  have hwg : w.heap.size ≤ g := by omega
  have hzg : w.heap.size < g := by omega
  have hblg : b < g := by omega
  clear hW hz0 hg0 hbA hb1 h hg
  go_upto_region 3 with (first | (go_at_call 53; refine (hasAck_any _ _).mono ?_; rintro e w8 ⟨rfl, rfl⟩) | (go_at_call 94; refine (hasNext_any _ _).mono ?_; rintro e w8 ⟨rfl, rfl⟩) | (go_at_call 96; refine (hasClose_any _ _).mono ?_; rintro e w8 ⟨rfl, rfl⟩) | (go_at_call 78; refine (C1 _ hR).mono ?_; rintro e w1 ⟨rfl, hR, hk⟩; have hG := hk.row5 hG hgb; have hZ := hk.row5 hZ hzb; have hgl := Nat.lt_of_lt_of_le hgl hk.size; have hK := hK.trans hk; have qk : World.cell? _ ⟨g, 0, none⟩ = some (Value.int .i64 0) := (cell_heap hG 0).trans rfl; have fk := frozen_heap hG 0))
  refine wp_nameE _ (fun W3 hX => ?_)
  have hR : RAt b W3 s a1 e1 := by rw [hX]; exact hR.put hgb _
  have hZ : W3.heap[w.heap.size]? = some (.cells (MsgV.zero 0).row 34 (0, 0)) := by rw [hX]; exact row_oth hZ hgz
  have hK : Kept b w W3 := by rw [hX]; exact hK.setFar hwg
  have hG : W3.heap[g]? = some (.cells ((MsgV.zero 3).front ++ [Value.string ⟨#[]⟩, Value.int .i64 0, Value.string ⟨#[]⟩, Value.int .i64 0, Value.int .i64 0, Value.string ⟨#[]⟩, Value.int .i64 0, Value.int .i64 0, Value.string ⟨#[]⟩, Value.int .i64 0, Value.int .i64 0, Value.int .i64 0, Value.slice none 0 0, Value.int .i64 0, Value.slice none 0 0]).toArray 34 (0, 0)) := by rw [hX, ← zero_put 3]; exact row_put5 hG
  have hgl : g < W3.heap.size := (Array.getElem?_eq_some_iff.1 hG).1
  clear hX qk fk C1
  have hF : (MsgV.zero 3).front.length = 35 := MsgV.front_len _
  have q0 : W3.cell? ⟨g, 0, none⟩ = some (.int .i64 3) := (cell_heap hG 0).trans rfl
  go_upto_region 9 with (first | (go_at_call 53; refine (hasAck_any _ _).mono ?_; rintro e w8 ⟨rfl, rfl⟩) | (go_at_call 94; refine (hasNext_any _ _).mono ?_; rintro e w8 ⟨rfl, rfl⟩) | (go_at_call 96; refine (hasClose_any _ _).mono ?_; rintro e w8 ⟨rfl, rfl⟩) | (go_at_call 102; refine (C2 _ hR).mono ?_; rintro e w1 ⟨rfl, hR, hk⟩; have hG := hk.row5 hG hgb; have hZ := hk.row5 hZ hzb; have hgl := Nat.lt_of_lt_of_le hgl hk.size; have hK := hK.trans hk; have f35 := frozen_heap hG 35; have m35 : World.cell? _ ⟨g, 35, none⟩ = some (Value.string ⟨#[]⟩) := back_cell hF hG 0; have f36 := frozen_heap hG 36; have m36 : World.cell? _ ⟨g, 36, none⟩ = some (Value.int .i64 0) := back_cell hF hG 1; have f37 := frozen_heap hG 37; have m37 : World.cell? _ ⟨g, 37, none⟩ = some (Value.string ⟨#[]⟩) := back_cell hF hG 2; have f38 := frozen_heap hG 38; have m38 : World.cell? _ ⟨g, 38, none⟩ = some (Value.int .i64 0) := back_cell hF hG 3; have f39 := frozen_heap hG 39; have m39 : World.cell? _ ⟨g, 39, none⟩ = some (Value.int .i64 0) := back_cell hF hG 4; have f40 := frozen_heap hG 40; have m40 : World.cell? _ ⟨g, 40, none⟩ = some (Value.string ⟨#[]⟩) := back_cell hF hG 5; have f41 := frozen_heap hG 41; have m41 : World.cell? _ ⟨g, 41, none⟩ = some (Value.int .i64 0) := back_cell hF hG 6; have f42 := frozen_heap hG 42; have m42 : World.cell? _ ⟨g, 42, none⟩ = some (Value.int .i64 0) := back_cell hF hG 7))
  refine wp_nameE _ (fun W4 hX => ?_)
  have hR : RAt b W4 s a2 e2 := by rw [hX]; exact ((((((((hR.put hgb _).put hgb _).put hgb _).put hgb _).put hgb _).put hgb _).put hgb _).put hgb _)
  have hZ : W4.heap[w.heap.size]? = some (.cells (MsgV.zero 0).row 34 (0, 0)) := by rw [hX]; exact (row_oth (row_oth (row_oth (row_oth (row_oth (row_oth (row_oth (row_oth hZ hgz) hgz) hgz) hgz) hgz) hgz) hgz) hgz)
  have hK : Kept b w W4 := by rw [hX]; exact ((((((((hK.setFar hwg).setFar hwg).setFar hwg).setFar hwg).setFar hwg).setFar hwg).setFar hwg).setFar hwg)
  have hG : W4.heap[g]? = some (.cells ((MsgV.zero 3).front ++ [Value.string sp, Value.int .i64 sc, Value.string dp, Value.int .i64 dc, Value.int .i64 sq, Value.string da, Value.int .i64 th, Value.int .i64 ta, Value.string ⟨#[]⟩, Value.int .i64 0, Value.int .i64 0, Value.int .i64 0, Value.slice none 0 0, Value.int .i64 0, Value.slice none 0 0]).toArray 34 (0, 0)) := by rw [hX]; exact (back_put hF (back_put hF (back_put hF (back_put hF (back_put hF (back_put hF (back_put hF (back_put hF hG 0 (.string sp)) 1 (.int .i64 sc)) 2 (.string dp)) 3 (.int .i64 dc)) 4 (.int .i64 sq)) 5 (.string da)) 6 (.int .i64 th)) 7 (.int .i64 ta))
  have hgl : g < W4.heap.size := (Array.getElem?_eq_some_iff.1 hG).1
  clear hX
  clear C2 f35 m35 f36 m36 f37 m37 f38 m38 f39 m39 f40 m40 f41 m41 f42 m42
  have q0 := (cell_heap hG 0).trans (show _ = some (Value.int .i64 3) from rfl)
  go_upto_region 11 with (first | (go_at_call 53; refine (hasAck_any _ _).mono ?_; rintro e w8 ⟨rfl, rfl⟩) | (go_at_call 94; refine (hasNext_any _ _).mono ?_; rintro e w8 ⟨rfl, rfl⟩) | (go_at_call 96; refine (hasClose_any _ _).mono ?_; rintro e w8 ⟨rfl, rfl⟩) | (go_at_call 103; refine (C3 _ hR).mono ?_; rintro e w1 ⟨rfl, hR, hk⟩; have hG := hk.row5 hG hgb; have hZ := hk.row5 hZ hzb; have hgl := Nat.lt_of_lt_of_le hgl hk.size; have hK := hK.trans hk; have f43 := frozen_heap hG 43; have m43 : World.cell? _ ⟨g, 43, none⟩ = some (Value.string ⟨#[]⟩) := back_cell hF hG 8))
  refine wp_nameE _ (fun W5 hX => ?_)
  have hR : RAt b W5 s a3 e3 := by rw [hX]; exact (hR.put hgb _)
  have hZ : W5.heap[w.heap.size]? = some (.cells (MsgV.zero 0).row 34 (0, 0)) := by rw [hX]; exact (row_oth hZ hgz)
  have hK : Kept b w W5 := by rw [hX]; exact (hK.setFar hwg)
  have hG : W5.heap[g]? = some (.cells ((MsgV.zero 3).front ++ [Value.string sp, Value.int .i64 sc, Value.string dp, Value.int .i64 dc, Value.int .i64 sq, Value.string da, Value.int .i64 th, Value.int .i64 ta, Value.string ack, Value.int .i64 0, Value.int .i64 0, Value.int .i64 0, Value.slice none 0 0, Value.int .i64 0, Value.slice none 0 0]).toArray 34 (0, 0)) := by rw [hX]; exact (back_put hF hG 8 (.string ack))
  have hgl : g < W5.heap.size := (Array.getElem?_eq_some_iff.1 hG).1
  clear hX
  clear C3 f43 m43
  have q0 := (cell_heap hG 0).trans (show _ = some (Value.int .i64 3) from rfl)
  go_upto_region 14 with (first | (go_at_call 53; refine (hasAck_any _ _).mono ?_; rintro e w8 ⟨rfl, rfl⟩) | (go_at_call 94; refine (hasNext_any _ _).mono ?_; rintro e w8 ⟨rfl, rfl⟩) | (go_at_call 96; refine (hasClose_any _ _).mono ?_; rintro e w8 ⟨rfl, rfl⟩) | (go_at_call 78; refine (C4 _ hR).mono ?_; rintro e w1 ⟨rfl, hR, hk⟩; have hG := hk.row5 hG hgb; have hZ := hk.row5 hZ hzb; have hgl := Nat.lt_of_lt_of_le hgl hk.size; have hK := hK.trans hk; have f45 := frozen_heap hG 45; have m45 : World.cell? _ ⟨g, 45, none⟩ = some (Value.int .i64 0) := back_cell hF hG 10))
  refine wp_nameE _ (fun W6 hX => ?_)
  have hR : RAt b W6 s a4 e4 := by rw [hX]; exact (hR.put hgb _)
  have hZ : W6.heap[w.heap.size]? = some (.cells (MsgV.zero 0).row 34 (0, 0)) := by rw [hX]; exact (row_oth hZ hgz)
  have hK : Kept b w W6 := by rw [hX]; exact (hK.setFar hwg)
  have hG : W6.heap[g]? = some (.cells ((MsgV.zero 3).front ++ [Value.string sp, Value.int .i64 sc, Value.string dp, Value.int .i64 dc, Value.int .i64 sq, Value.string da, Value.int .i64 th, Value.int .i64 ta, Value.string ack, Value.int .i64 0, Value.int .i64 he, Value.int .i64 0, Value.slice none 0 0, Value.int .i64 0, Value.slice none 0 0]).toArray 34 (0, 0)) := by rw [hX]; exact (back_put hF hG 10 (.int .i64 he))
  have hgl : g < W6.heap.size := (Array.getElem?_eq_some_iff.1 hG).1
  clear hX
  clear C4 f45 m45
  have q0 := (cell_heap hG 0).trans (show _ = some (Value.int .i64 3) from rfl)
  obtain ⟨Bp, hBp⟩ : ∃ x, W6.heap.size = x := ⟨_, rfl⟩
  go_upto_region 15 with (first | (go_at_call 53; refine (hasAck_any _ _).mono ?_; rintro e w8 ⟨rfl, rfl⟩) | (go_at_call 94; refine (hasNext_any _ _).mono ?_; rintro e w8 ⟨rfl, rfl⟩) | (go_at_call 96; refine (hasClose_any _ _).mono ?_; rintro e w8 ⟨rfl, rfl⟩) | (go_at_call 104; refine (C5 _ hR).mono ?_; rintro e w1 ⟨pa, pn, pc, pxs, rfl, hpd, hL, hpn, hpc, hpM, hR, _, hk⟩; have hG := hk.row5 hG hgb; have hZ := hk.row5 hZ hzb; have hgl := Nat.lt_of_lt_of_le hgl hk.size; have hK := hK.trans hk; have f46 := frozen_heap hG 46; have m46 : World.cell? _ ⟨g, 46, none⟩ = some (Value.int .i64 0) := back_cell hF hG 11; have f47 := frozen_heap hG 47; have m47 : World.cell? _ ⟨g, 47, none⟩ = some (Value.slice none 0 0) := back_cell hF hG 12))
  rw [hBp] at hL
  have hgB : g < Bp := by omega
  have hbB : b < Bp := by omega
  have HPD := Lib.hid hpd
  clear hpd
  refine wp_nameE _ (fun W7 hX => ?_)
  have hR : RAt b W7 s a5 e5 := by rw [hX]; exact ((hR.put hgb _).put hgb _)
  have hZ : W7.heap[w.heap.size]? = some (.cells (MsgV.zero 0).row 34 (0, 0)) := by rw [hX]; exact (row_oth (row_oth hZ hgz) hgz)
  have hK : Kept b w W7 := by rw [hX]; exact ((hK.setFar hwg).setFar hwg)
  have hG : W7.heap[g]? = some (.cells ((MsgV.zero 3).front ++ [Value.string sp, Value.int .i64 sc, Value.string dp, Value.int .i64 dc, Value.int .i64 sq, Value.string da, Value.int .i64 th, Value.int .i64 ta, Value.string ack, Value.int .i64 0, Value.int .i64 he, Value.int .i64 pct, Value.slice pa pn pc, Value.int .i64 0, Value.slice none 0 0]).toArray 34 (0, 0)) := by rw [hX]; exact (back_put hF (back_put hF hG 11 (.int .i64 pct)) 12 (.slice pa pn pc))
  have hgl : g < W7.heap.size := (Array.getElem?_eq_some_iff.1 hG).1
  have hL : lvsHeld W7 Bp pa pxs := by rw [hX]; exact ((hL.same (SameT.put hgB) (SameT.put hgB)).same (SameT.put hgB) (SameT.put hgB))
  clear hX
  clear C5 f46 f47 m46 m47
  have q0 := (cell_heap hG 0).trans (show _ = some (Value.int .i64 3) from rfl)
  obtain ⟨RW, hRW⟩ : ∃ q : MsgV, (⟨3, 0, 0, zeroM, sp, sc, dp, dc, sq, da, th, ta, ack, 0, he, pct, pa, pn, pc, pxs, 0, none, 0, 0, []⟩ : MsgV) = q := ⟨_, rfl⟩
  have hG : W7.heap[g]? = some (.cells RW.row 34 (0, 0)) := by rw [← hRW, MsgV.row_split]; exact hG
  have hrg := rangeAt_row5 hG
  have HRW := Lib.hid hRW
  clear hRW
  go_wp2_with (first | (go_at_call 53; refine (hasAck_any _ _).mono ?_; rintro e w8 ⟨rfl, rfl⟩) | (go_at_call 94; refine (hasNext_any _ _).mono ?_; rintro e w8 ⟨rfl, rfl⟩) | (go_at_call 96; refine (hasClose_any _ _).mono ?_; rintro e w8 ⟨rfl, rfl⟩) | (refine wpList_load_mid rfl 34 (.tmp 3) rfl g 0 rfl RW.row.toList _ hrg Try.underlying34 rfl (msg_info _) ?_; rw [Array.toArray_toList]) | (refine wpList_storeRowTo (Z := RW.row) rfl (.tmp 2) (.tmp 50) 34 rfl (by rw [MsgV.row_size]; kernel_rfl) rfl (by rfl) hZ (by rw [MsgV.row_size, MsgV.row_size]) (MsgV.row_one _) ?_))
  have hZ2 := setRow_heap _ _ _ RW.row _ _ hZ
  have hrd := run_loadVar_mid (P := Try.prog) _ w.heap.size 0 34 RW.row.toList _ (rangeAt_row5 hZ2) Try.underlying34 rfl (msg_info _)
  rw [Array.toArray_toList] at hrd
  refine bodyPost_ret (v := .agg RW.row) ?_ rfl ?_
  · simp [results, Try.results57, asAddr]
    exact hrd
  have hRW := HRW.out
  subst hRW
  exact ⟨_, rfl, ⟨(hL.same (SameT.setRow (by omega)) (SameT.setRow (by omega))).at, hpn, hpc, hpM, LvsAt.nil _ _, rfl, Nat.le_refl _, Nat.zero_le _, by unfold maxLen; simp only; omega, by unfold maxLen; simp only; omega⟩, ⟨(hL.same (SameT.setRow (by omega)) (SameT.setRow (by omega))).mono (by omega), lvsHeld.nil _ _⟩, by unfold MsgV.d; simp only [HPD.out, List.map_nil]; rfl, hR.setRow hzb _, hK.setRow (Nat.le_refl _) _⟩
set_option maxRecDepth 100000 in
set_option maxHeartbeats 8000000 in
theorem msgRead_4 (b : Nat) (w : World) (s : ByteArray) (at_ err : Int) (a1 e1 : Int) (h1 : numG s at_ err 1 5 = (4, a1, e1)) (h : RAt b w s at_ err) (hs : s.size ≤ 1000000000) (hp : 0 ≤ at_ ∧ at_ ≤ s.size) :
    Calls Try.prog 57 #[.pointer (some ⟨b, 0, none⟩)] w fun e w' => msgPost b w s (msgP s at_ err) e w' := by
  have p1 := numG_in (err := err) (least := 1) (most := 5) hp
  rw [h1] at p1
  simp only at p1
  have C2 := fun W h => pkRead_any b W s a1 e1 h hs
  have p2 := pkG_in (e := e1) p1
  have z2 := pkG_size s a1 e1
  obtain ⟨⟨⟨⟨sp, sc⟩, ⟨dp, dc⟩, sq, da, th, ta⟩, a2, e2⟩, h2⟩ : ∃ t, pkP s a1 e1 = t := ⟨_, rfl⟩
  have gq := h2
  rw [pkP_eq] at gq
  simp only [Prod.mk.injEq] at gq
  obtain ⟨⟨⟨g1, g2⟩, ⟨g3, g4⟩, g5, g6, g7, g8⟩, g9, g10⟩ := gq
  simp only [g1, g2, g3, g4, g5, g6, g7, g8, g9, g10] at C2
  rw [g9] at p2
  rw [g1, g3] at z2
  clear g1 g2 g3 g4 g5 g6 g7 g8 g9 g10
  have zs := z2.1
  have zd := z2.2
  clear z2
  have p3 := numG_in (err := e2) (least := 0) (most := 1099511627777) p2
  obtain ⟨⟨nx, a3, e3⟩, h3⟩ : ∃ t, numG s a2 e2 0 1099511627777 = t := ⟨_, rfl⟩
  rw [h3] at p3
  simp only at p3
  have C3 := fun W h => rnum_all b W s a2 e2 0 1099511627777 h hs
  simp only [h3] at C3
  have p4 := numG_in (err := e3) (least := 1) (most := 1099511627776) p3
  obtain ⟨⟨he, a4, e4⟩, h4⟩ : ∃ t, numG s a3 e3 1 1099511627776 = t := ⟨_, rfl⟩
  rw [h4] at p4
  simp only at p4
  have C4 := fun W h => rnum_all b W s a3 e3 1 1099511627776 h hs
  simp only [h4] at C4
  have C5 := fun W h => pfRead_any b W s a4 e4 h hs p4
  obtain ⟨⟨⟨pct, pl⟩, a5, e5⟩, h5⟩ : ∃ t, pfP s a4 e4 = t := ⟨_, rfl⟩
  simp only [h5] at C5
  have hE : msgP s at_ err = (mk4 (((sp, sc), (dp, dc), sq, da, th, ta), nx, he, ⟨pct, pl⟩), a5, e5) := by
    unfold msgP mapP seqP nP
    simp only [h1]
    unfold bodyP
    rw [if_neg (by decide), if_neg (by decide), if_pos rfl]
    unfold mapP seqP nP
    simp only [h2, h3, h4, h5]
  rw [hE]
  have C1 := fun W h => rnum_all b W s at_ err 1 5 h hs
  simp only [h1] at C1
  clear hE h1 h2 h3 h4 h5
  have hlt := h.lt
  have hz0 := al2_0 w (.cells #[.int .i64 0, .int .i64 0, .int .i64 0, .int .u8 0, .int .u8 0, .int .u8 0, .int .u8 0, .int .u8 0, .int .u8 0, .int .u8 0, .int .u8 0, .int .u8 0, .int .u8 0, .int .u8 0, .int .u8 0, .int .u8 0, .int .u8 0, .int .u8 0, .int .u8 0, .int .u8 0, .int .u8 0, .int .u8 0, .int .u8 0, .int .u8 0, .int .u8 0, .int .u8 0, .int .u8 0, .int .u8 0, .int .u8 0, .int .u8 0, .int .u8 0, .int .u8 0, .int .u8 0, .int .u8 0, .int .u8 0, .string ⟨#[]⟩, .int .i64 0, .string ⟨#[]⟩, .int .i64 0, .int .i64 0, .string ⟨#[]⟩, .int .i64 0, .int .i64 0, .string ⟨#[]⟩, .int .i64 0, .int .i64 0, .int .i64 0, .slice none 0 0, .int .i64 0, .slice none 0 0] 34) (.cells #[.int .i64 0, .int .i64 0, .int .i64 0, .int .u8 0, .int .u8 0, .int .u8 0, .int .u8 0, .int .u8 0, .int .u8 0, .int .u8 0, .int .u8 0, .int .u8 0, .int .u8 0, .int .u8 0, .int .u8 0, .int .u8 0, .int .u8 0, .int .u8 0, .int .u8 0, .int .u8 0, .int .u8 0, .int .u8 0, .int .u8 0, .int .u8 0, .int .u8 0, .int .u8 0, .int .u8 0, .int .u8 0, .int .u8 0, .int .u8 0, .int .u8 0, .int .u8 0, .int .u8 0, .int .u8 0, .int .u8 0, .string ⟨#[]⟩, .int .i64 0, .string ⟨#[]⟩, .int .i64 0, .int .i64 0, .string ⟨#[]⟩, .int .i64 0, .int .i64 0, .string ⟨#[]⟩, .int .i64 0, .int .i64 0, .int .i64 0, .slice none 0 0, .int .i64 0, .slice none 0 0] 34)
  have hg0 := al2_1 w (.cells #[.int .i64 0, .int .i64 0, .int .i64 0, .int .u8 0, .int .u8 0, .int .u8 0, .int .u8 0, .int .u8 0, .int .u8 0, .int .u8 0, .int .u8 0, .int .u8 0, .int .u8 0, .int .u8 0, .int .u8 0, .int .u8 0, .int .u8 0, .int .u8 0, .int .u8 0, .int .u8 0, .int .u8 0, .int .u8 0, .int .u8 0, .int .u8 0, .int .u8 0, .int .u8 0, .int .u8 0, .int .u8 0, .int .u8 0, .int .u8 0, .int .u8 0, .int .u8 0, .int .u8 0, .int .u8 0, .int .u8 0, .string ⟨#[]⟩, .int .i64 0, .string ⟨#[]⟩, .int .i64 0, .int .i64 0, .string ⟨#[]⟩, .int .i64 0, .int .i64 0, .string ⟨#[]⟩, .int .i64 0, .int .i64 0, .int .i64 0, .slice none 0 0, .int .i64 0, .slice none 0 0] 34) (.cells #[.int .i64 0, .int .i64 0, .int .i64 0, .int .u8 0, .int .u8 0, .int .u8 0, .int .u8 0, .int .u8 0, .int .u8 0, .int .u8 0, .int .u8 0, .int .u8 0, .int .u8 0, .int .u8 0, .int .u8 0, .int .u8 0, .int .u8 0, .int .u8 0, .int .u8 0, .int .u8 0, .int .u8 0, .int .u8 0, .int .u8 0, .int .u8 0, .int .u8 0, .int .u8 0, .int .u8 0, .int .u8 0, .int .u8 0, .int .u8 0, .int .u8 0, .int .u8 0, .int .u8 0, .int .u8 0, .int .u8 0, .string ⟨#[]⟩, .int .i64 0, .string ⟨#[]⟩, .int .i64 0, .int .i64 0, .string ⟨#[]⟩, .int .i64 0, .int .i64 0, .string ⟨#[]⟩, .int .i64 0, .int .i64 0, .int .i64 0, .slice none 0 0, .int .i64 0, .slice none 0 0] 34)
  have hbA := al2_below w (.cells #[.int .i64 0, .int .i64 0, .int .i64 0, .int .u8 0, .int .u8 0, .int .u8 0, .int .u8 0, .int .u8 0, .int .u8 0, .int .u8 0, .int .u8 0, .int .u8 0, .int .u8 0, .int .u8 0, .int .u8 0, .int .u8 0, .int .u8 0, .int .u8 0, .int .u8 0, .int .u8 0, .int .u8 0, .int .u8 0, .int .u8 0, .int .u8 0, .int .u8 0, .int .u8 0, .int .u8 0, .int .u8 0, .int .u8 0, .int .u8 0, .int .u8 0, .int .u8 0, .int .u8 0, .int .u8 0, .int .u8 0, .string ⟨#[]⟩, .int .i64 0, .string ⟨#[]⟩, .int .i64 0, .int .i64 0, .string ⟨#[]⟩, .int .i64 0, .int .i64 0, .string ⟨#[]⟩, .int .i64 0, .int .i64 0, .int .i64 0, .slice none 0 0, .int .i64 0, .slice none 0 0] 34) (.cells #[.int .i64 0, .int .i64 0, .int .i64 0, .int .u8 0, .int .u8 0, .int .u8 0, .int .u8 0, .int .u8 0, .int .u8 0, .int .u8 0, .int .u8 0, .int .u8 0, .int .u8 0, .int .u8 0, .int .u8 0, .int .u8 0, .int .u8 0, .int .u8 0, .int .u8 0, .int .u8 0, .int .u8 0, .int .u8 0, .int .u8 0, .int .u8 0, .int .u8 0, .int .u8 0, .int .u8 0, .int .u8 0, .int .u8 0, .int .u8 0, .int .u8 0, .int .u8 0, .int .u8 0, .int .u8 0, .int .u8 0, .string ⟨#[]⟩, .int .i64 0, .string ⟨#[]⟩, .int .i64 0, .int .i64 0, .string ⟨#[]⟩, .int .i64 0, .int .i64 0, .string ⟨#[]⟩, .int .i64 0, .int .i64 0, .int .i64 0, .slice none 0 0, .int .i64 0, .slice none 0 0] 34)
  go_enter Try.func57, Try.ntmps57
  go_upto_region 2 with fail
  refine wp_nameE _ (fun W2 hW => ?_)
  have hZ : W2.heap[w.heap.size]? = some (.cells (MsgV.zero 0).row 34 (0, 0)) := by rw [hW, ← zero_row]; exact hz0
  have hG : W2.heap[w.heap.size + 1]? = some (.cells (MsgV.zero 0).row 34 (0, 0)) := by rw [hW, ← zero_row]; exact hg0
  have hb1 : Below w.heap.size w W2 := by rw [hW]; exact hbA
  have hR := h.below hb1 hlt
  have hK : Kept b w W2 := Kept.of hb1
  have hzb : w.heap.size ≠ b := by omega
  have hgl : w.heap.size + 1 < W2.heap.size := (Array.getElem?_eq_some_iff.1 hG).1
  obtain ⟨g, hg⟩ : ∃ g, w.heap.size + 1 = g := ⟨_, rfl⟩
  simp only [hg] at hG hgl ⊢
  have hgb : g ≠ b := by omega
  have hgz : g ≠ w.heap.size := by omega
  have hwg : w.heap.size ≤ g := by omega
  have hzg : w.heap.size < g := by omega
  have hblg : b < g := by omega
  clear hW hz0 hg0 hbA hb1 h hg
  go_upto_region 3 with (first | (go_at_call 53; refine (hasAck_any _ _).mono ?_; rintro e w8 ⟨rfl, rfl⟩) | (go_at_call 94; refine (hasNext_any _ _).mono ?_; rintro e w8 ⟨rfl, rfl⟩) | (go_at_call 96; refine (hasClose_any _ _).mono ?_; rintro e w8 ⟨rfl, rfl⟩) | (go_at_call 78; refine (C1 _ hR).mono ?_; rintro e w1 ⟨rfl, hR, hk⟩; have hG := hk.row5 hG hgb; have hZ := hk.row5 hZ hzb; have hgl := Nat.lt_of_lt_of_le hgl hk.size; have hK := hK.trans hk; have qk : World.cell? _ ⟨g, 0, none⟩ = some (Value.int .i64 0) := (cell_heap hG 0).trans rfl; have fk := frozen_heap hG 0))
  refine wp_nameE _ (fun W3 hX => ?_)
  have hR : RAt b W3 s a1 e1 := by rw [hX]; exact hR.put hgb _
  have hZ : W3.heap[w.heap.size]? = some (.cells (MsgV.zero 0).row 34 (0, 0)) := by rw [hX]; exact row_oth hZ hgz
  have hK : Kept b w W3 := by rw [hX]; exact hK.setFar hwg
  have hG : W3.heap[g]? = some (.cells ((MsgV.zero 4).front ++ [Value.string ⟨#[]⟩, Value.int .i64 0, Value.string ⟨#[]⟩, Value.int .i64 0, Value.int .i64 0, Value.string ⟨#[]⟩, Value.int .i64 0, Value.int .i64 0, Value.string ⟨#[]⟩, Value.int .i64 0, Value.int .i64 0, Value.int .i64 0, Value.slice none 0 0, Value.int .i64 0, Value.slice none 0 0]).toArray 34 (0, 0)) := by rw [hX, ← zero_put 4]; exact row_put5 hG
  have hgl : g < W3.heap.size := (Array.getElem?_eq_some_iff.1 hG).1
  clear hX qk fk C1
  have hF : (MsgV.zero 4).front.length = 35 := MsgV.front_len _
  have q0 : W3.cell? ⟨g, 0, none⟩ = some (.int .i64 4) := (cell_heap hG 0).trans rfl
  go_upto_region 9 with (first | (go_at_call 53; refine (hasAck_any _ _).mono ?_; rintro e w8 ⟨rfl, rfl⟩) | (go_at_call 94; refine (hasNext_any _ _).mono ?_; rintro e w8 ⟨rfl, rfl⟩) | (go_at_call 96; refine (hasClose_any _ _).mono ?_; rintro e w8 ⟨rfl, rfl⟩) | (go_at_call 102; refine (C2 _ hR).mono ?_; rintro e w1 ⟨rfl, hR, hk⟩; have hG := hk.row5 hG hgb; have hZ := hk.row5 hZ hzb; have hgl := Nat.lt_of_lt_of_le hgl hk.size; have hK := hK.trans hk; have f35 := frozen_heap hG 35; have m35 : World.cell? _ ⟨g, 35, none⟩ = some (Value.string ⟨#[]⟩) := back_cell hF hG 0; have f36 := frozen_heap hG 36; have m36 : World.cell? _ ⟨g, 36, none⟩ = some (Value.int .i64 0) := back_cell hF hG 1; have f37 := frozen_heap hG 37; have m37 : World.cell? _ ⟨g, 37, none⟩ = some (Value.string ⟨#[]⟩) := back_cell hF hG 2; have f38 := frozen_heap hG 38; have m38 : World.cell? _ ⟨g, 38, none⟩ = some (Value.int .i64 0) := back_cell hF hG 3; have f39 := frozen_heap hG 39; have m39 : World.cell? _ ⟨g, 39, none⟩ = some (Value.int .i64 0) := back_cell hF hG 4; have f40 := frozen_heap hG 40; have m40 : World.cell? _ ⟨g, 40, none⟩ = some (Value.string ⟨#[]⟩) := back_cell hF hG 5; have f41 := frozen_heap hG 41; have m41 : World.cell? _ ⟨g, 41, none⟩ = some (Value.int .i64 0) := back_cell hF hG 6; have f42 := frozen_heap hG 42; have m42 : World.cell? _ ⟨g, 42, none⟩ = some (Value.int .i64 0) := back_cell hF hG 7))
  refine wp_nameE _ (fun W4 hX => ?_)
  have hR : RAt b W4 s a2 e2 := by rw [hX]; exact ((((((((hR.put hgb _).put hgb _).put hgb _).put hgb _).put hgb _).put hgb _).put hgb _).put hgb _)
  have hZ : W4.heap[w.heap.size]? = some (.cells (MsgV.zero 0).row 34 (0, 0)) := by rw [hX]; exact (row_oth (row_oth (row_oth (row_oth (row_oth (row_oth (row_oth (row_oth hZ hgz) hgz) hgz) hgz) hgz) hgz) hgz) hgz)
  have hK : Kept b w W4 := by rw [hX]; exact ((((((((hK.setFar hwg).setFar hwg).setFar hwg).setFar hwg).setFar hwg).setFar hwg).setFar hwg).setFar hwg)
  have hG : W4.heap[g]? = some (.cells ((MsgV.zero 4).front ++ [Value.string sp, Value.int .i64 sc, Value.string dp, Value.int .i64 dc, Value.int .i64 sq, Value.string da, Value.int .i64 th, Value.int .i64 ta, Value.string ⟨#[]⟩, Value.int .i64 0, Value.int .i64 0, Value.int .i64 0, Value.slice none 0 0, Value.int .i64 0, Value.slice none 0 0]).toArray 34 (0, 0)) := by rw [hX]; exact (back_put hF (back_put hF (back_put hF (back_put hF (back_put hF (back_put hF (back_put hF (back_put hF hG 0 (.string sp)) 1 (.int .i64 sc)) 2 (.string dp)) 3 (.int .i64 dc)) 4 (.int .i64 sq)) 5 (.string da)) 6 (.int .i64 th)) 7 (.int .i64 ta))
  have hgl : g < W4.heap.size := (Array.getElem?_eq_some_iff.1 hG).1
  clear hX
  clear C2 f35 m35 f36 m36 f37 m37 f38 m38 f39 m39 f40 m40 f41 m41 f42 m42
  have q0 := (cell_heap hG 0).trans (show _ = some (Value.int .i64 4) from rfl)
  go_upto_region 13 with (first | (go_at_call 53; refine (hasAck_any _ _).mono ?_; rintro e w8 ⟨rfl, rfl⟩) | (go_at_call 94; refine (hasNext_any _ _).mono ?_; rintro e w8 ⟨rfl, rfl⟩) | (go_at_call 96; refine (hasClose_any _ _).mono ?_; rintro e w8 ⟨rfl, rfl⟩) | (go_at_call 78; refine (C3 _ hR).mono ?_; rintro e w1 ⟨rfl, hR, hk⟩; have hG := hk.row5 hG hgb; have hZ := hk.row5 hZ hzb; have hgl := Nat.lt_of_lt_of_le hgl hk.size; have hK := hK.trans hk; have f44 := frozen_heap hG 44; have m44 : World.cell? _ ⟨g, 44, none⟩ = some (Value.int .i64 0) := back_cell hF hG 9))
  refine wp_nameE _ (fun W5 hX => ?_)
  have hR : RAt b W5 s a3 e3 := by rw [hX]; exact (hR.put hgb _)
  have hZ : W5.heap[w.heap.size]? = some (.cells (MsgV.zero 0).row 34 (0, 0)) := by rw [hX]; exact (row_oth hZ hgz)
  have hK : Kept b w W5 := by rw [hX]; exact (hK.setFar hwg)
  have hG : W5.heap[g]? = some (.cells ((MsgV.zero 4).front ++ [Value.string sp, Value.int .i64 sc, Value.string dp, Value.int .i64 dc, Value.int .i64 sq, Value.string da, Value.int .i64 th, Value.int .i64 ta, Value.string ⟨#[]⟩, Value.int .i64 nx, Value.int .i64 0, Value.int .i64 0, Value.slice none 0 0, Value.int .i64 0, Value.slice none 0 0]).toArray 34 (0, 0)) := by rw [hX]; exact (back_put hF hG 9 (.int .i64 nx))
  have hgl : g < W5.heap.size := (Array.getElem?_eq_some_iff.1 hG).1
  clear hX
  clear C3 f44 m44
  have q0 := (cell_heap hG 0).trans (show _ = some (Value.int .i64 4) from rfl)
  go_upto_region 14 with (first | (go_at_call 53; refine (hasAck_any _ _).mono ?_; rintro e w8 ⟨rfl, rfl⟩) | (go_at_call 94; refine (hasNext_any _ _).mono ?_; rintro e w8 ⟨rfl, rfl⟩) | (go_at_call 96; refine (hasClose_any _ _).mono ?_; rintro e w8 ⟨rfl, rfl⟩) | (go_at_call 78; refine (C4 _ hR).mono ?_; rintro e w1 ⟨rfl, hR, hk⟩; have hG := hk.row5 hG hgb; have hZ := hk.row5 hZ hzb; have hgl := Nat.lt_of_lt_of_le hgl hk.size; have hK := hK.trans hk; have f45 := frozen_heap hG 45; have m45 : World.cell? _ ⟨g, 45, none⟩ = some (Value.int .i64 0) := back_cell hF hG 10))
  refine wp_nameE _ (fun W6 hX => ?_)
  have hR : RAt b W6 s a4 e4 := by rw [hX]; exact (hR.put hgb _)
  have hZ : W6.heap[w.heap.size]? = some (.cells (MsgV.zero 0).row 34 (0, 0)) := by rw [hX]; exact (row_oth hZ hgz)
  have hK : Kept b w W6 := by rw [hX]; exact (hK.setFar hwg)
  have hG : W6.heap[g]? = some (.cells ((MsgV.zero 4).front ++ [Value.string sp, Value.int .i64 sc, Value.string dp, Value.int .i64 dc, Value.int .i64 sq, Value.string da, Value.int .i64 th, Value.int .i64 ta, Value.string ⟨#[]⟩, Value.int .i64 nx, Value.int .i64 he, Value.int .i64 0, Value.slice none 0 0, Value.int .i64 0, Value.slice none 0 0]).toArray 34 (0, 0)) := by rw [hX]; exact (back_put hF hG 10 (.int .i64 he))
  have hgl : g < W6.heap.size := (Array.getElem?_eq_some_iff.1 hG).1
  clear hX
  clear C4 f45 m45
  have q0 := (cell_heap hG 0).trans (show _ = some (Value.int .i64 4) from rfl)
  obtain ⟨Bp, hBp⟩ : ∃ x, W6.heap.size = x := ⟨_, rfl⟩
  go_upto_region 15 with (first | (go_at_call 53; refine (hasAck_any _ _).mono ?_; rintro e w8 ⟨rfl, rfl⟩) | (go_at_call 94; refine (hasNext_any _ _).mono ?_; rintro e w8 ⟨rfl, rfl⟩) | (go_at_call 96; refine (hasClose_any _ _).mono ?_; rintro e w8 ⟨rfl, rfl⟩) | (go_at_call 104; refine (C5 _ hR).mono ?_; rintro e w1 ⟨pa, pn, pc, pxs, rfl, hpd, hL, hpn, hpc, hpM, hR, _, hk⟩; have hG := hk.row5 hG hgb; have hZ := hk.row5 hZ hzb; have hgl := Nat.lt_of_lt_of_le hgl hk.size; have hK := hK.trans hk; have f46 := frozen_heap hG 46; have m46 : World.cell? _ ⟨g, 46, none⟩ = some (Value.int .i64 0) := back_cell hF hG 11; have f47 := frozen_heap hG 47; have m47 : World.cell? _ ⟨g, 47, none⟩ = some (Value.slice none 0 0) := back_cell hF hG 12))
  rw [hBp] at hL
  have hgB : g < Bp := by omega
  have hbB : b < Bp := by omega
  have HPD := Lib.hid hpd
  clear hpd
  refine wp_nameE _ (fun W7 hX => ?_)
  have hR : RAt b W7 s a5 e5 := by rw [hX]; exact ((hR.put hgb _).put hgb _)
  have hZ : W7.heap[w.heap.size]? = some (.cells (MsgV.zero 0).row 34 (0, 0)) := by rw [hX]; exact (row_oth (row_oth hZ hgz) hgz)
  have hK : Kept b w W7 := by rw [hX]; exact ((hK.setFar hwg).setFar hwg)
  have hG : W7.heap[g]? = some (.cells ((MsgV.zero 4).front ++ [Value.string sp, Value.int .i64 sc, Value.string dp, Value.int .i64 dc, Value.int .i64 sq, Value.string da, Value.int .i64 th, Value.int .i64 ta, Value.string ⟨#[]⟩, Value.int .i64 nx, Value.int .i64 he, Value.int .i64 pct, Value.slice pa pn pc, Value.int .i64 0, Value.slice none 0 0]).toArray 34 (0, 0)) := by rw [hX]; exact (back_put hF (back_put hF hG 11 (.int .i64 pct)) 12 (.slice pa pn pc))
  have hgl : g < W7.heap.size := (Array.getElem?_eq_some_iff.1 hG).1
  have hL : lvsHeld W7 Bp pa pxs := by rw [hX]; exact ((hL.same (SameT.put hgB) (SameT.put hgB)).same (SameT.put hgB) (SameT.put hgB))
  clear hX
  clear C5 f46 f47 m46 m47
  have q0 := (cell_heap hG 0).trans (show _ = some (Value.int .i64 4) from rfl)
  obtain ⟨RW, hRW⟩ : ∃ q : MsgV, (⟨4, 0, 0, zeroM, sp, sc, dp, dc, sq, da, th, ta, ⟨#[]⟩, nx, he, pct, pa, pn, pc, pxs, 0, none, 0, 0, []⟩ : MsgV) = q := ⟨_, rfl⟩
  have hG : W7.heap[g]? = some (.cells RW.row 34 (0, 0)) := by rw [← hRW, MsgV.row_split]; exact hG
  have hrg := rangeAt_row5 hG
  have HRW := Lib.hid hRW
  clear hRW
  go_wp2_with (first | (go_at_call 53; refine (hasAck_any _ _).mono ?_; rintro e w8 ⟨rfl, rfl⟩) | (go_at_call 94; refine (hasNext_any _ _).mono ?_; rintro e w8 ⟨rfl, rfl⟩) | (go_at_call 96; refine (hasClose_any _ _).mono ?_; rintro e w8 ⟨rfl, rfl⟩) | (refine wpList_load_mid rfl 34 (.tmp 3) rfl g 0 rfl RW.row.toList _ hrg Try.underlying34 rfl (msg_info _) ?_; rw [Array.toArray_toList]) | (refine wpList_storeRowTo (Z := RW.row) rfl (.tmp 2) (.tmp 50) 34 rfl (by rw [MsgV.row_size]; kernel_rfl) rfl (by rfl) hZ (by rw [MsgV.row_size, MsgV.row_size]) (MsgV.row_one _) ?_))
  have hZ2 := setRow_heap _ _ _ RW.row _ _ hZ
  have hrd := run_loadVar_mid (P := Try.prog) _ w.heap.size 0 34 RW.row.toList _ (rangeAt_row5 hZ2) Try.underlying34 rfl (msg_info _)
  rw [Array.toArray_toList] at hrd
  refine bodyPost_ret (v := .agg RW.row) ?_ rfl ?_
  · simp [results, Try.results57, asAddr]
    exact hrd
  have hRW := HRW.out
  subst hRW
  exact ⟨_, rfl, ⟨(hL.same (SameT.setRow (by omega)) (SameT.setRow (by omega))).at, hpn, hpc, hpM, LvsAt.nil _ _, rfl, Nat.le_refl _, Nat.zero_le _, by unfold maxLen; simp only; omega, by unfold maxLen; simp only; omega⟩, ⟨(hL.same (SameT.setRow (by omega)) (SameT.setRow (by omega))).mono (by omega), lvsHeld.nil _ _⟩, by unfold MsgV.d; simp only [HPD.out, List.map_nil]; rfl, hR.setRow hzb _, hK.setRow (Nat.le_refl _) _⟩
set_option maxRecDepth 100000 in
set_option maxHeartbeats 8000000 in
theorem msgRead_5 (b : Nat) (w : World) (s : ByteArray) (at_ err : Int) (a1 e1 : Int) (h1 : numG s at_ err 1 5 = (5, a1, e1)) (h : RAt b w s at_ err) (hs : s.size ≤ 1000000000) (hp : 0 ≤ at_ ∧ at_ ≤ s.size) :
    Calls Try.prog 57 #[.pointer (some ⟨b, 0, none⟩)] w fun e w' => msgPost b w s (msgP s at_ err) e w' := by
  have p1 := numG_in (err := err) (least := 1) (most := 5) hp
  rw [h1] at p1
  simp only at p1
  have C2 := fun W h => pkRead_any b W s a1 e1 h hs
  have p2 := pkG_in (e := e1) p1
  have z2 := pkG_size s a1 e1
  obtain ⟨⟨⟨⟨sp, sc⟩, ⟨dp, dc⟩, sq, da, th, ta⟩, a2, e2⟩, h2⟩ : ∃ t, pkP s a1 e1 = t := ⟨_, rfl⟩
  have gq := h2
  rw [pkP_eq] at gq
  simp only [Prod.mk.injEq] at gq
  obtain ⟨⟨⟨g1, g2⟩, ⟨g3, g4⟩, g5, g6, g7, g8⟩, g9, g10⟩ := gq
  simp only [g1, g2, g3, g4, g5, g6, g7, g8, g9, g10] at C2
  rw [g9] at p2
  rw [g1, g3] at z2
  clear g1 g2 g3 g4 g5 g6 g7 g8 g9 g10
  have zs := z2.1
  have zd := z2.2
  clear z2
  have p3 := numG_in (err := e2) (least := 0) (most := 1099511627777) p2
  obtain ⟨⟨nx, a3, e3⟩, h3⟩ : ∃ t, numG s a2 e2 0 1099511627777 = t := ⟨_, rfl⟩
  rw [h3] at p3
  simp only at p3
  have C3 := fun W h => rnum_all b W s a2 e2 0 1099511627777 h hs
  simp only [h3] at C3
  have p4 := numG_in (err := e3) (least := 1) (most := 1099511627776) p3
  obtain ⟨⟨he, a4, e4⟩, h4⟩ : ∃ t, numG s a3 e3 1 1099511627776 = t := ⟨_, rfl⟩
  rw [h4] at p4
  simp only at p4
  have C4 := fun W h => rnum_all b W s a3 e3 1 1099511627776 h hs
  simp only [h4] at C4
  have C5 := fun W h => pfRead_any b W s a4 e4 h hs p4
  obtain ⟨⟨⟨pct, pl⟩, a5, e5⟩, h5⟩ : ∃ t, pfP s a4 e4 = t := ⟨_, rfl⟩
  simp only [h5] at C5
  have p5 := pfP_in (e := e4) p4
  rw [h5] at p5
  simp only at p5
  have C6 := fun W h => pfRead_any b W s a5 e5 h hs p5
  obtain ⟨⟨⟨cct, cl⟩, a6, e6⟩, h6⟩ : ∃ t, pfP s a5 e5 = t := ⟨_, rfl⟩
  simp only [h6] at C6
  have hE : msgP s at_ err = (mk5 (((sp, sc), (dp, dc), sq, da, th, ta), nx, he, ⟨pct, pl⟩, ⟨cct, cl⟩), a6, e6) := by
    unfold msgP mapP seqP nP
    simp only [h1]
    unfold bodyP
    rw [if_neg (by decide), if_neg (by decide), if_neg (by decide), if_pos rfl]
    unfold mapP seqP nP
    simp only [h2, h3, h4, h5, h6]
  rw [hE]
  have C1 := fun W h => rnum_all b W s at_ err 1 5 h hs
  simp only [h1] at C1
  clear hE h1 h2 h3 h4 h5 h6
  have hlt := h.lt
  have hz0 := al2_0 w (.cells #[.int .i64 0, .int .i64 0, .int .i64 0, .int .u8 0, .int .u8 0, .int .u8 0, .int .u8 0, .int .u8 0, .int .u8 0, .int .u8 0, .int .u8 0, .int .u8 0, .int .u8 0, .int .u8 0, .int .u8 0, .int .u8 0, .int .u8 0, .int .u8 0, .int .u8 0, .int .u8 0, .int .u8 0, .int .u8 0, .int .u8 0, .int .u8 0, .int .u8 0, .int .u8 0, .int .u8 0, .int .u8 0, .int .u8 0, .int .u8 0, .int .u8 0, .int .u8 0, .int .u8 0, .int .u8 0, .int .u8 0, .string ⟨#[]⟩, .int .i64 0, .string ⟨#[]⟩, .int .i64 0, .int .i64 0, .string ⟨#[]⟩, .int .i64 0, .int .i64 0, .string ⟨#[]⟩, .int .i64 0, .int .i64 0, .int .i64 0, .slice none 0 0, .int .i64 0, .slice none 0 0] 34) (.cells #[.int .i64 0, .int .i64 0, .int .i64 0, .int .u8 0, .int .u8 0, .int .u8 0, .int .u8 0, .int .u8 0, .int .u8 0, .int .u8 0, .int .u8 0, .int .u8 0, .int .u8 0, .int .u8 0, .int .u8 0, .int .u8 0, .int .u8 0, .int .u8 0, .int .u8 0, .int .u8 0, .int .u8 0, .int .u8 0, .int .u8 0, .int .u8 0, .int .u8 0, .int .u8 0, .int .u8 0, .int .u8 0, .int .u8 0, .int .u8 0, .int .u8 0, .int .u8 0, .int .u8 0, .int .u8 0, .int .u8 0, .string ⟨#[]⟩, .int .i64 0, .string ⟨#[]⟩, .int .i64 0, .int .i64 0, .string ⟨#[]⟩, .int .i64 0, .int .i64 0, .string ⟨#[]⟩, .int .i64 0, .int .i64 0, .int .i64 0, .slice none 0 0, .int .i64 0, .slice none 0 0] 34)
  have hg0 := al2_1 w (.cells #[.int .i64 0, .int .i64 0, .int .i64 0, .int .u8 0, .int .u8 0, .int .u8 0, .int .u8 0, .int .u8 0, .int .u8 0, .int .u8 0, .int .u8 0, .int .u8 0, .int .u8 0, .int .u8 0, .int .u8 0, .int .u8 0, .int .u8 0, .int .u8 0, .int .u8 0, .int .u8 0, .int .u8 0, .int .u8 0, .int .u8 0, .int .u8 0, .int .u8 0, .int .u8 0, .int .u8 0, .int .u8 0, .int .u8 0, .int .u8 0, .int .u8 0, .int .u8 0, .int .u8 0, .int .u8 0, .int .u8 0, .string ⟨#[]⟩, .int .i64 0, .string ⟨#[]⟩, .int .i64 0, .int .i64 0, .string ⟨#[]⟩, .int .i64 0, .int .i64 0, .string ⟨#[]⟩, .int .i64 0, .int .i64 0, .int .i64 0, .slice none 0 0, .int .i64 0, .slice none 0 0] 34) (.cells #[.int .i64 0, .int .i64 0, .int .i64 0, .int .u8 0, .int .u8 0, .int .u8 0, .int .u8 0, .int .u8 0, .int .u8 0, .int .u8 0, .int .u8 0, .int .u8 0, .int .u8 0, .int .u8 0, .int .u8 0, .int .u8 0, .int .u8 0, .int .u8 0, .int .u8 0, .int .u8 0, .int .u8 0, .int .u8 0, .int .u8 0, .int .u8 0, .int .u8 0, .int .u8 0, .int .u8 0, .int .u8 0, .int .u8 0, .int .u8 0, .int .u8 0, .int .u8 0, .int .u8 0, .int .u8 0, .int .u8 0, .string ⟨#[]⟩, .int .i64 0, .string ⟨#[]⟩, .int .i64 0, .int .i64 0, .string ⟨#[]⟩, .int .i64 0, .int .i64 0, .string ⟨#[]⟩, .int .i64 0, .int .i64 0, .int .i64 0, .slice none 0 0, .int .i64 0, .slice none 0 0] 34)
  have hbA := al2_below w (.cells #[.int .i64 0, .int .i64 0, .int .i64 0, .int .u8 0, .int .u8 0, .int .u8 0, .int .u8 0, .int .u8 0, .int .u8 0, .int .u8 0, .int .u8 0, .int .u8 0, .int .u8 0, .int .u8 0, .int .u8 0, .int .u8 0, .int .u8 0, .int .u8 0, .int .u8 0, .int .u8 0, .int .u8 0, .int .u8 0, .int .u8 0, .int .u8 0, .int .u8 0, .int .u8 0, .int .u8 0, .int .u8 0, .int .u8 0, .int .u8 0, .int .u8 0, .int .u8 0, .int .u8 0, .int .u8 0, .int .u8 0, .string ⟨#[]⟩, .int .i64 0, .string ⟨#[]⟩, .int .i64 0, .int .i64 0, .string ⟨#[]⟩, .int .i64 0, .int .i64 0, .string ⟨#[]⟩, .int .i64 0, .int .i64 0, .int .i64 0, .slice none 0 0, .int .i64 0, .slice none 0 0] 34) (.cells #[.int .i64 0, .int .i64 0, .int .i64 0, .int .u8 0, .int .u8 0, .int .u8 0, .int .u8 0, .int .u8 0, .int .u8 0, .int .u8 0, .int .u8 0, .int .u8 0, .int .u8 0, .int .u8 0, .int .u8 0, .int .u8 0, .int .u8 0, .int .u8 0, .int .u8 0, .int .u8 0, .int .u8 0, .int .u8 0, .int .u8 0, .int .u8 0, .int .u8 0, .int .u8 0, .int .u8 0, .int .u8 0, .int .u8 0, .int .u8 0, .int .u8 0, .int .u8 0, .int .u8 0, .int .u8 0, .int .u8 0, .string ⟨#[]⟩, .int .i64 0, .string ⟨#[]⟩, .int .i64 0, .int .i64 0, .string ⟨#[]⟩, .int .i64 0, .int .i64 0, .string ⟨#[]⟩, .int .i64 0, .int .i64 0, .int .i64 0, .slice none 0 0, .int .i64 0, .slice none 0 0] 34)
  go_enter Try.func57, Try.ntmps57
  go_upto_region 2 with fail
  refine wp_nameE _ (fun W2 hW => ?_)
  have hZ : W2.heap[w.heap.size]? = some (.cells (MsgV.zero 0).row 34 (0, 0)) := by rw [hW, ← zero_row]; exact hz0
  have hG : W2.heap[w.heap.size + 1]? = some (.cells (MsgV.zero 0).row 34 (0, 0)) := by rw [hW, ← zero_row]; exact hg0
  have hb1 : Below w.heap.size w W2 := by rw [hW]; exact hbA
  have hR := h.below hb1 hlt
  have hK : Kept b w W2 := Kept.of hb1
  have hzb : w.heap.size ≠ b := by omega
  have hgl : w.heap.size + 1 < W2.heap.size := (Array.getElem?_eq_some_iff.1 hG).1
  obtain ⟨g, hg⟩ : ∃ g, w.heap.size + 1 = g := ⟨_, rfl⟩
  simp only [hg] at hG hgl ⊢
  have hgb : g ≠ b := by omega
  have hgz : g ≠ w.heap.size := by omega
  have hwg : w.heap.size ≤ g := by omega
  have hzg : w.heap.size < g := by omega
  have hblg : b < g := by omega
  clear hW hz0 hg0 hbA hb1 h hg
  go_upto_region 3 with (first | (go_at_call 53; refine (hasAck_any _ _).mono ?_; rintro e w8 ⟨rfl, rfl⟩) | (go_at_call 94; refine (hasNext_any _ _).mono ?_; rintro e w8 ⟨rfl, rfl⟩) | (go_at_call 96; refine (hasClose_any _ _).mono ?_; rintro e w8 ⟨rfl, rfl⟩) | (go_at_call 78; refine (C1 _ hR).mono ?_; rintro e w1 ⟨rfl, hR, hk⟩; have hG := hk.row5 hG hgb; have hZ := hk.row5 hZ hzb; have hgl := Nat.lt_of_lt_of_le hgl hk.size; have hK := hK.trans hk; have qk : World.cell? _ ⟨g, 0, none⟩ = some (Value.int .i64 0) := (cell_heap hG 0).trans rfl; have fk := frozen_heap hG 0))
  refine wp_nameE _ (fun W3 hX => ?_)
  have hR : RAt b W3 s a1 e1 := by rw [hX]; exact hR.put hgb _
  have hZ : W3.heap[w.heap.size]? = some (.cells (MsgV.zero 0).row 34 (0, 0)) := by rw [hX]; exact row_oth hZ hgz
  have hK : Kept b w W3 := by rw [hX]; exact hK.setFar hwg
  have hG : W3.heap[g]? = some (.cells ((MsgV.zero 5).front ++ [Value.string ⟨#[]⟩, Value.int .i64 0, Value.string ⟨#[]⟩, Value.int .i64 0, Value.int .i64 0, Value.string ⟨#[]⟩, Value.int .i64 0, Value.int .i64 0, Value.string ⟨#[]⟩, Value.int .i64 0, Value.int .i64 0, Value.int .i64 0, Value.slice none 0 0, Value.int .i64 0, Value.slice none 0 0]).toArray 34 (0, 0)) := by rw [hX, ← zero_put 5]; exact row_put5 hG
  have hgl : g < W3.heap.size := (Array.getElem?_eq_some_iff.1 hG).1
  clear hX qk fk C1
  have hF : (MsgV.zero 5).front.length = 35 := MsgV.front_len _
  have q0 : W3.cell? ⟨g, 0, none⟩ = some (.int .i64 5) := (cell_heap hG 0).trans rfl
  go_upto_region 9 with (first | (go_at_call 53; refine (hasAck_any _ _).mono ?_; rintro e w8 ⟨rfl, rfl⟩) | (go_at_call 94; refine (hasNext_any _ _).mono ?_; rintro e w8 ⟨rfl, rfl⟩) | (go_at_call 96; refine (hasClose_any _ _).mono ?_; rintro e w8 ⟨rfl, rfl⟩) | (go_at_call 102; refine (C2 _ hR).mono ?_; rintro e w1 ⟨rfl, hR, hk⟩; have hG := hk.row5 hG hgb; have hZ := hk.row5 hZ hzb; have hgl := Nat.lt_of_lt_of_le hgl hk.size; have hK := hK.trans hk; have f35 := frozen_heap hG 35; have m35 : World.cell? _ ⟨g, 35, none⟩ = some (Value.string ⟨#[]⟩) := back_cell hF hG 0; have f36 := frozen_heap hG 36; have m36 : World.cell? _ ⟨g, 36, none⟩ = some (Value.int .i64 0) := back_cell hF hG 1; have f37 := frozen_heap hG 37; have m37 : World.cell? _ ⟨g, 37, none⟩ = some (Value.string ⟨#[]⟩) := back_cell hF hG 2; have f38 := frozen_heap hG 38; have m38 : World.cell? _ ⟨g, 38, none⟩ = some (Value.int .i64 0) := back_cell hF hG 3; have f39 := frozen_heap hG 39; have m39 : World.cell? _ ⟨g, 39, none⟩ = some (Value.int .i64 0) := back_cell hF hG 4; have f40 := frozen_heap hG 40; have m40 : World.cell? _ ⟨g, 40, none⟩ = some (Value.string ⟨#[]⟩) := back_cell hF hG 5; have f41 := frozen_heap hG 41; have m41 : World.cell? _ ⟨g, 41, none⟩ = some (Value.int .i64 0) := back_cell hF hG 6; have f42 := frozen_heap hG 42; have m42 : World.cell? _ ⟨g, 42, none⟩ = some (Value.int .i64 0) := back_cell hF hG 7))
  refine wp_nameE _ (fun W4 hX => ?_)
  have hR : RAt b W4 s a2 e2 := by rw [hX]; exact ((((((((hR.put hgb _).put hgb _).put hgb _).put hgb _).put hgb _).put hgb _).put hgb _).put hgb _)
  have hZ : W4.heap[w.heap.size]? = some (.cells (MsgV.zero 0).row 34 (0, 0)) := by rw [hX]; exact (row_oth (row_oth (row_oth (row_oth (row_oth (row_oth (row_oth (row_oth hZ hgz) hgz) hgz) hgz) hgz) hgz) hgz) hgz)
  have hK : Kept b w W4 := by rw [hX]; exact ((((((((hK.setFar hwg).setFar hwg).setFar hwg).setFar hwg).setFar hwg).setFar hwg).setFar hwg).setFar hwg)
  have hG : W4.heap[g]? = some (.cells ((MsgV.zero 5).front ++ [Value.string sp, Value.int .i64 sc, Value.string dp, Value.int .i64 dc, Value.int .i64 sq, Value.string da, Value.int .i64 th, Value.int .i64 ta, Value.string ⟨#[]⟩, Value.int .i64 0, Value.int .i64 0, Value.int .i64 0, Value.slice none 0 0, Value.int .i64 0, Value.slice none 0 0]).toArray 34 (0, 0)) := by rw [hX]; exact (back_put hF (back_put hF (back_put hF (back_put hF (back_put hF (back_put hF (back_put hF (back_put hF hG 0 (.string sp)) 1 (.int .i64 sc)) 2 (.string dp)) 3 (.int .i64 dc)) 4 (.int .i64 sq)) 5 (.string da)) 6 (.int .i64 th)) 7 (.int .i64 ta))
  have hgl : g < W4.heap.size := (Array.getElem?_eq_some_iff.1 hG).1
  clear hX
  clear C2 f35 m35 f36 m36 f37 m37 f38 m38 f39 m39 f40 m40 f41 m41 f42 m42
  have q0 := (cell_heap hG 0).trans (show _ = some (Value.int .i64 5) from rfl)
  go_upto_region 13 with (first | (go_at_call 53; refine (hasAck_any _ _).mono ?_; rintro e w8 ⟨rfl, rfl⟩) | (go_at_call 94; refine (hasNext_any _ _).mono ?_; rintro e w8 ⟨rfl, rfl⟩) | (go_at_call 96; refine (hasClose_any _ _).mono ?_; rintro e w8 ⟨rfl, rfl⟩) | (go_at_call 78; refine (C3 _ hR).mono ?_; rintro e w1 ⟨rfl, hR, hk⟩; have hG := hk.row5 hG hgb; have hZ := hk.row5 hZ hzb; have hgl := Nat.lt_of_lt_of_le hgl hk.size; have hK := hK.trans hk; have f44 := frozen_heap hG 44; have m44 : World.cell? _ ⟨g, 44, none⟩ = some (Value.int .i64 0) := back_cell hF hG 9))
  refine wp_nameE _ (fun W5 hX => ?_)
  have hR : RAt b W5 s a3 e3 := by rw [hX]; exact (hR.put hgb _)
  have hZ : W5.heap[w.heap.size]? = some (.cells (MsgV.zero 0).row 34 (0, 0)) := by rw [hX]; exact (row_oth hZ hgz)
  have hK : Kept b w W5 := by rw [hX]; exact (hK.setFar hwg)
  have hG : W5.heap[g]? = some (.cells ((MsgV.zero 5).front ++ [Value.string sp, Value.int .i64 sc, Value.string dp, Value.int .i64 dc, Value.int .i64 sq, Value.string da, Value.int .i64 th, Value.int .i64 ta, Value.string ⟨#[]⟩, Value.int .i64 nx, Value.int .i64 0, Value.int .i64 0, Value.slice none 0 0, Value.int .i64 0, Value.slice none 0 0]).toArray 34 (0, 0)) := by rw [hX]; exact (back_put hF hG 9 (.int .i64 nx))
  have hgl : g < W5.heap.size := (Array.getElem?_eq_some_iff.1 hG).1
  clear hX
  clear C3 f44 m44
  have q0 := (cell_heap hG 0).trans (show _ = some (Value.int .i64 5) from rfl)
  go_upto_region 14 with (first | (go_at_call 53; refine (hasAck_any _ _).mono ?_; rintro e w8 ⟨rfl, rfl⟩) | (go_at_call 94; refine (hasNext_any _ _).mono ?_; rintro e w8 ⟨rfl, rfl⟩) | (go_at_call 96; refine (hasClose_any _ _).mono ?_; rintro e w8 ⟨rfl, rfl⟩) | (go_at_call 78; refine (C4 _ hR).mono ?_; rintro e w1 ⟨rfl, hR, hk⟩; have hG := hk.row5 hG hgb; have hZ := hk.row5 hZ hzb; have hgl := Nat.lt_of_lt_of_le hgl hk.size; have hK := hK.trans hk; have f45 := frozen_heap hG 45; have m45 : World.cell? _ ⟨g, 45, none⟩ = some (Value.int .i64 0) := back_cell hF hG 10))
  refine wp_nameE _ (fun W6 hX => ?_)
  have hR : RAt b W6 s a4 e4 := by rw [hX]; exact (hR.put hgb _)
  have hZ : W6.heap[w.heap.size]? = some (.cells (MsgV.zero 0).row 34 (0, 0)) := by rw [hX]; exact (row_oth hZ hgz)
  have hK : Kept b w W6 := by rw [hX]; exact (hK.setFar hwg)
  have hG : W6.heap[g]? = some (.cells ((MsgV.zero 5).front ++ [Value.string sp, Value.int .i64 sc, Value.string dp, Value.int .i64 dc, Value.int .i64 sq, Value.string da, Value.int .i64 th, Value.int .i64 ta, Value.string ⟨#[]⟩, Value.int .i64 nx, Value.int .i64 he, Value.int .i64 0, Value.slice none 0 0, Value.int .i64 0, Value.slice none 0 0]).toArray 34 (0, 0)) := by rw [hX]; exact (back_put hF hG 10 (.int .i64 he))
  have hgl : g < W6.heap.size := (Array.getElem?_eq_some_iff.1 hG).1
  clear hX
  clear C4 f45 m45
  have q0 := (cell_heap hG 0).trans (show _ = some (Value.int .i64 5) from rfl)
  obtain ⟨Bp, hBp⟩ : ∃ x, W6.heap.size = x := ⟨_, rfl⟩
  go_upto_region 15 with (first | (go_at_call 53; refine (hasAck_any _ _).mono ?_; rintro e w8 ⟨rfl, rfl⟩) | (go_at_call 94; refine (hasNext_any _ _).mono ?_; rintro e w8 ⟨rfl, rfl⟩) | (go_at_call 96; refine (hasClose_any _ _).mono ?_; rintro e w8 ⟨rfl, rfl⟩) | (go_at_call 104; refine (C5 _ hR).mono ?_; rintro e w1 ⟨pa, pn, pc, pxs, rfl, hpd, hL, hpn, hpc, hpM, hR, _, hk⟩; have hG := hk.row5 hG hgb; have hZ := hk.row5 hZ hzb; have hgl := Nat.lt_of_lt_of_le hgl hk.size; have hK := hK.trans hk; have f46 := frozen_heap hG 46; have m46 : World.cell? _ ⟨g, 46, none⟩ = some (Value.int .i64 0) := back_cell hF hG 11; have f47 := frozen_heap hG 47; have m47 : World.cell? _ ⟨g, 47, none⟩ = some (Value.slice none 0 0) := back_cell hF hG 12))
  rw [hBp] at hL
  have hgB : g < Bp := by omega
  have hbB : b < Bp := by omega
  have HPD := Lib.hid hpd
  clear hpd
  refine wp_nameE _ (fun W7 hX => ?_)
  have hR : RAt b W7 s a5 e5 := by rw [hX]; exact ((hR.put hgb _).put hgb _)
  have hZ : W7.heap[w.heap.size]? = some (.cells (MsgV.zero 0).row 34 (0, 0)) := by rw [hX]; exact (row_oth (row_oth hZ hgz) hgz)
  have hK : Kept b w W7 := by rw [hX]; exact ((hK.setFar hwg).setFar hwg)
  have hG : W7.heap[g]? = some (.cells ((MsgV.zero 5).front ++ [Value.string sp, Value.int .i64 sc, Value.string dp, Value.int .i64 dc, Value.int .i64 sq, Value.string da, Value.int .i64 th, Value.int .i64 ta, Value.string ⟨#[]⟩, Value.int .i64 nx, Value.int .i64 he, Value.int .i64 pct, Value.slice pa pn pc, Value.int .i64 0, Value.slice none 0 0]).toArray 34 (0, 0)) := by rw [hX]; exact (back_put hF (back_put hF hG 11 (.int .i64 pct)) 12 (.slice pa pn pc))
  have hgl : g < W7.heap.size := (Array.getElem?_eq_some_iff.1 hG).1
  have hL : lvsHeld W7 Bp pa pxs := by rw [hX]; exact ((hL.same (SameT.put hgB) (SameT.put hgB)).same (SameT.put hgB) (SameT.put hgB))
  clear hX
  clear C5 f46 f47 m46 m47
  have q0 := (cell_heap hG 0).trans (show _ = some (Value.int .i64 5) from rfl)
  obtain ⟨Bc, hBc⟩ : ∃ x, W7.heap.size = x := ⟨_, rfl⟩
  go_upto_region 17 with (first | (go_at_call 53; refine (hasAck_any _ _).mono ?_; rintro e w8 ⟨rfl, rfl⟩) | (go_at_call 94; refine (hasNext_any _ _).mono ?_; rintro e w8 ⟨rfl, rfl⟩) | (go_at_call 96; refine (hasClose_any _ _).mono ?_; rintro e w8 ⟨rfl, rfl⟩) | (go_at_call 104; refine (C6 _ hR).mono ?_; rintro e w1 ⟨ca, cn, cc, cxs, rfl, hcd, hM, hcn, hcc, hcM, hR, _, hk⟩; have hG := hk.row5 hG hgb; have hZ := hk.row5 hZ hzb; have hgl := Nat.lt_of_lt_of_le hgl hk.size; have hK := hK.trans hk; have hL := hL.same (SameT.kept hk hbB) (SameT.kept hk hbB); have f48 := frozen_heap hG 48; have m48 : World.cell? _ ⟨g, 48, none⟩ = some (Value.int .i64 0) := back_cell hF hG 13; have f49 := frozen_heap hG 49; have m49 : World.cell? _ ⟨g, 49, none⟩ = some (Value.slice none 0 0) := back_cell hF hG 14))
  rw [hBc] at hM
  have hgC : g < Bc := by omega
  have hbC : b < Bc := by omega
  have HCD := Lib.hid hcd
  clear hcd
  refine wp_nameE _ (fun W8 hX => ?_)
  have hR : RAt b W8 s a6 e6 := by rw [hX]; exact ((hR.put hgb _).put hgb _)
  have hZ : W8.heap[w.heap.size]? = some (.cells (MsgV.zero 0).row 34 (0, 0)) := by rw [hX]; exact (row_oth (row_oth hZ hgz) hgz)
  have hK : Kept b w W8 := by rw [hX]; exact ((hK.setFar hwg).setFar hwg)
  have hG : W8.heap[g]? = some (.cells ((MsgV.zero 5).front ++ [Value.string sp, Value.int .i64 sc, Value.string dp, Value.int .i64 dc, Value.int .i64 sq, Value.string da, Value.int .i64 th, Value.int .i64 ta, Value.string ⟨#[]⟩, Value.int .i64 nx, Value.int .i64 he, Value.int .i64 pct, Value.slice pa pn pc, Value.int .i64 cct, Value.slice ca cn cc]).toArray 34 (0, 0)) := by rw [hX]; exact (back_put hF (back_put hF hG 13 (.int .i64 cct)) 14 (.slice ca cn cc))
  have hgl : g < W8.heap.size := (Array.getElem?_eq_some_iff.1 hG).1
  have hL : lvsHeld W8 Bp pa pxs := by rw [hX]; exact ((hL.same (SameT.put hgB) (SameT.put hgB)).same (SameT.put hgB) (SameT.put hgB))
  have hM : lvsHeld W8 Bc ca cxs := by rw [hX]; exact ((hM.same (SameT.put hgC) (SameT.put hgC)).same (SameT.put hgC) (SameT.put hgC))
  clear hX
  clear C6 f48 f49 m48 m49
  have q0 := (cell_heap hG 0).trans (show _ = some (Value.int .i64 5) from rfl)
  obtain ⟨RW, hRW⟩ : ∃ q : MsgV, (⟨5, 0, 0, zeroM, sp, sc, dp, dc, sq, da, th, ta, ⟨#[]⟩, nx, he, pct, pa, pn, pc, pxs, cct, ca, cn, cc, cxs⟩ : MsgV) = q := ⟨_, rfl⟩
  have hG : W8.heap[g]? = some (.cells RW.row 34 (0, 0)) := by rw [← hRW, MsgV.row_split]; exact hG
  have hrg := rangeAt_row5 hG
  have HRW := Lib.hid hRW
  clear hRW
  go_wp2_with (first | (go_at_call 53; refine (hasAck_any _ _).mono ?_; rintro e w8 ⟨rfl, rfl⟩) | (go_at_call 94; refine (hasNext_any _ _).mono ?_; rintro e w8 ⟨rfl, rfl⟩) | (go_at_call 96; refine (hasClose_any _ _).mono ?_; rintro e w8 ⟨rfl, rfl⟩) | (refine wpList_load_mid rfl 34 (.tmp 3) rfl g 0 rfl RW.row.toList _ hrg Try.underlying34 rfl (msg_info _) ?_; rw [Array.toArray_toList]) | (refine wpList_storeRowTo (Z := RW.row) rfl (.tmp 2) (.tmp 50) 34 rfl (by rw [MsgV.row_size]; kernel_rfl) rfl (by rfl) hZ (by rw [MsgV.row_size, MsgV.row_size]) (MsgV.row_one _) ?_))
  have hZ2 := setRow_heap _ _ _ RW.row _ _ hZ
  have hrd := run_loadVar_mid (P := Try.prog) _ w.heap.size 0 34 RW.row.toList _ (rangeAt_row5 hZ2) Try.underlying34 rfl (msg_info _)
  rw [Array.toArray_toList] at hrd
  refine bodyPost_ret (v := .agg RW.row) ?_ rfl ?_
  · simp [results, Try.results57, asAddr]
    exact hrd
  have hRW := HRW.out
  subst hRW
  exact ⟨_, rfl, ⟨(hL.same (SameT.setRow (by omega)) (SameT.setRow (by omega))).at, hpn, hpc, hpM, (hM.same (SameT.setRow (by omega)) (SameT.setRow (by omega))).at, hcn, hcc, hcM, by unfold maxLen; simp only; omega, by unfold maxLen; simp only; omega⟩, ⟨(hL.same (SameT.setRow (by omega)) (SameT.setRow (by omega))).mono (by omega), (hM.same (SameT.setRow (by omega)) (SameT.setRow (by omega))).mono (by omega)⟩, by unfold MsgV.d; simp only [HPD.out, HCD.out]; rfl, hR.setRow hzb _, hK.setRow (Nat.le_refl _) _⟩
set_option maxRecDepth 100000 in
set_option maxHeartbeats 8000000 in
theorem msgRead_E (b : Nat) (w : World) (s : ByteArray) (at_ err : Int) (kd a1 e1 : Int) (h1 : numG s at_ err 1 5 = (kd, a1, e1)) (hk1 : kd ≠ 1) (hk3 : kd ≠ 3) (hk4 : kd ≠ 4) (hk5 : kd ≠ 5) (h : RAt b w s at_ err) (hs : s.size ≤ 1000000000) (hp : 0 ≤ at_ ∧ at_ ≤ s.size) :
    Calls Try.prog 57 #[.pointer (some ⟨b, 0, none⟩)] w fun e w' => msgPost b w s (msgP s at_ err) e w' := by
  have p1 := numG_in (err := err) (least := 1) (most := 5) hp
  rw [h1] at p1
  simp only at p1
  have C2 := fun W h => pkRead_any b W s a1 e1 h hs
  have p2 := pkG_in (e := e1) p1
  have z2 := pkG_size s a1 e1
  obtain ⟨⟨⟨⟨sp, sc⟩, ⟨dp, dc⟩, sq, da, th, ta⟩, a2, e2⟩, h2⟩ : ∃ t, pkP s a1 e1 = t := ⟨_, rfl⟩
  have gq := h2
  rw [pkP_eq] at gq
  simp only [Prod.mk.injEq] at gq
  obtain ⟨⟨⟨g1, g2⟩, ⟨g3, g4⟩, g5, g6, g7, g8⟩, g9, g10⟩ := gq
  simp only [g1, g2, g3, g4, g5, g6, g7, g8, g9, g10] at C2
  rw [g9] at p2
  rw [g1, g3] at z2
  clear g1 g2 g3 g4 g5 g6 g7 g8 g9 g10
  have zs := z2.1
  have zd := z2.2
  clear z2
  have p3 := numG_in (err := e2) (least := 1) (most := 1099511627776) p2
  obtain ⟨⟨he, a3, e3⟩, h3⟩ : ∃ t, numG s a2 e2 1 1099511627776 = t := ⟨_, rfl⟩
  rw [h3] at p3
  simp only at p3
  have C3 := fun W h => rnum_all b W s a2 e2 1 1099511627776 h hs
  simp only [h3] at C3
  have C4 := fun W h => pfRead_any b W s a3 e3 h hs p3
  obtain ⟨⟨⟨pct, pl⟩, a4, e4⟩, h4⟩ : ∃ t, pfP s a3 e3 = t := ⟨_, rfl⟩
  simp only [h4] at C4
  have hE : msgP s at_ err = (mkE kd (((sp, sc), (dp, dc), sq, da, th, ta), he, ⟨pct, pl⟩), a4, e4) := by
    unfold msgP mapP seqP nP
    simp only [h1]
    unfold bodyP
    rw [if_neg hk1, if_neg hk3, if_neg hk4, if_neg hk5]
    unfold mapP seqP nP
    simp only [h2, h3, h4]
  rw [hE]
  have C1 := fun W h => rnum_all b W s at_ err 1 5 h hs
  simp only [h1] at C1
  clear hE h1 h2 h3 h4
  have d1 : (kd == 1) = false := beq_eq_false_iff_ne.2 hk1
  have d3 : (kd == 3) = false := beq_eq_false_iff_ne.2 hk3
  have d4 : (kd == 4) = false := beq_eq_false_iff_ne.2 hk4
  have d5 : (kd == 5) = false := beq_eq_false_iff_ne.2 hk5
  have hlt := h.lt
  have hz0 := al2_0 w (.cells #[.int .i64 0, .int .i64 0, .int .i64 0, .int .u8 0, .int .u8 0, .int .u8 0, .int .u8 0, .int .u8 0, .int .u8 0, .int .u8 0, .int .u8 0, .int .u8 0, .int .u8 0, .int .u8 0, .int .u8 0, .int .u8 0, .int .u8 0, .int .u8 0, .int .u8 0, .int .u8 0, .int .u8 0, .int .u8 0, .int .u8 0, .int .u8 0, .int .u8 0, .int .u8 0, .int .u8 0, .int .u8 0, .int .u8 0, .int .u8 0, .int .u8 0, .int .u8 0, .int .u8 0, .int .u8 0, .int .u8 0, .string ⟨#[]⟩, .int .i64 0, .string ⟨#[]⟩, .int .i64 0, .int .i64 0, .string ⟨#[]⟩, .int .i64 0, .int .i64 0, .string ⟨#[]⟩, .int .i64 0, .int .i64 0, .int .i64 0, .slice none 0 0, .int .i64 0, .slice none 0 0] 34) (.cells #[.int .i64 0, .int .i64 0, .int .i64 0, .int .u8 0, .int .u8 0, .int .u8 0, .int .u8 0, .int .u8 0, .int .u8 0, .int .u8 0, .int .u8 0, .int .u8 0, .int .u8 0, .int .u8 0, .int .u8 0, .int .u8 0, .int .u8 0, .int .u8 0, .int .u8 0, .int .u8 0, .int .u8 0, .int .u8 0, .int .u8 0, .int .u8 0, .int .u8 0, .int .u8 0, .int .u8 0, .int .u8 0, .int .u8 0, .int .u8 0, .int .u8 0, .int .u8 0, .int .u8 0, .int .u8 0, .int .u8 0, .string ⟨#[]⟩, .int .i64 0, .string ⟨#[]⟩, .int .i64 0, .int .i64 0, .string ⟨#[]⟩, .int .i64 0, .int .i64 0, .string ⟨#[]⟩, .int .i64 0, .int .i64 0, .int .i64 0, .slice none 0 0, .int .i64 0, .slice none 0 0] 34)
  have hg0 := al2_1 w (.cells #[.int .i64 0, .int .i64 0, .int .i64 0, .int .u8 0, .int .u8 0, .int .u8 0, .int .u8 0, .int .u8 0, .int .u8 0, .int .u8 0, .int .u8 0, .int .u8 0, .int .u8 0, .int .u8 0, .int .u8 0, .int .u8 0, .int .u8 0, .int .u8 0, .int .u8 0, .int .u8 0, .int .u8 0, .int .u8 0, .int .u8 0, .int .u8 0, .int .u8 0, .int .u8 0, .int .u8 0, .int .u8 0, .int .u8 0, .int .u8 0, .int .u8 0, .int .u8 0, .int .u8 0, .int .u8 0, .int .u8 0, .string ⟨#[]⟩, .int .i64 0, .string ⟨#[]⟩, .int .i64 0, .int .i64 0, .string ⟨#[]⟩, .int .i64 0, .int .i64 0, .string ⟨#[]⟩, .int .i64 0, .int .i64 0, .int .i64 0, .slice none 0 0, .int .i64 0, .slice none 0 0] 34) (.cells #[.int .i64 0, .int .i64 0, .int .i64 0, .int .u8 0, .int .u8 0, .int .u8 0, .int .u8 0, .int .u8 0, .int .u8 0, .int .u8 0, .int .u8 0, .int .u8 0, .int .u8 0, .int .u8 0, .int .u8 0, .int .u8 0, .int .u8 0, .int .u8 0, .int .u8 0, .int .u8 0, .int .u8 0, .int .u8 0, .int .u8 0, .int .u8 0, .int .u8 0, .int .u8 0, .int .u8 0, .int .u8 0, .int .u8 0, .int .u8 0, .int .u8 0, .int .u8 0, .int .u8 0, .int .u8 0, .int .u8 0, .string ⟨#[]⟩, .int .i64 0, .string ⟨#[]⟩, .int .i64 0, .int .i64 0, .string ⟨#[]⟩, .int .i64 0, .int .i64 0, .string ⟨#[]⟩, .int .i64 0, .int .i64 0, .int .i64 0, .slice none 0 0, .int .i64 0, .slice none 0 0] 34)
  have hbA := al2_below w (.cells #[.int .i64 0, .int .i64 0, .int .i64 0, .int .u8 0, .int .u8 0, .int .u8 0, .int .u8 0, .int .u8 0, .int .u8 0, .int .u8 0, .int .u8 0, .int .u8 0, .int .u8 0, .int .u8 0, .int .u8 0, .int .u8 0, .int .u8 0, .int .u8 0, .int .u8 0, .int .u8 0, .int .u8 0, .int .u8 0, .int .u8 0, .int .u8 0, .int .u8 0, .int .u8 0, .int .u8 0, .int .u8 0, .int .u8 0, .int .u8 0, .int .u8 0, .int .u8 0, .int .u8 0, .int .u8 0, .int .u8 0, .string ⟨#[]⟩, .int .i64 0, .string ⟨#[]⟩, .int .i64 0, .int .i64 0, .string ⟨#[]⟩, .int .i64 0, .int .i64 0, .string ⟨#[]⟩, .int .i64 0, .int .i64 0, .int .i64 0, .slice none 0 0, .int .i64 0, .slice none 0 0] 34) (.cells #[.int .i64 0, .int .i64 0, .int .i64 0, .int .u8 0, .int .u8 0, .int .u8 0, .int .u8 0, .int .u8 0, .int .u8 0, .int .u8 0, .int .u8 0, .int .u8 0, .int .u8 0, .int .u8 0, .int .u8 0, .int .u8 0, .int .u8 0, .int .u8 0, .int .u8 0, .int .u8 0, .int .u8 0, .int .u8 0, .int .u8 0, .int .u8 0, .int .u8 0, .int .u8 0, .int .u8 0, .int .u8 0, .int .u8 0, .int .u8 0, .int .u8 0, .int .u8 0, .int .u8 0, .int .u8 0, .int .u8 0, .string ⟨#[]⟩, .int .i64 0, .string ⟨#[]⟩, .int .i64 0, .int .i64 0, .string ⟨#[]⟩, .int .i64 0, .int .i64 0, .string ⟨#[]⟩, .int .i64 0, .int .i64 0, .int .i64 0, .slice none 0 0, .int .i64 0, .slice none 0 0] 34)
  go_enter Try.func57, Try.ntmps57
  go_upto_region 2 with fail
  refine wp_nameE _ (fun W2 hW => ?_)
  have hZ : W2.heap[w.heap.size]? = some (.cells (MsgV.zero 0).row 34 (0, 0)) := by rw [hW, ← zero_row]; exact hz0
  have hG : W2.heap[w.heap.size + 1]? = some (.cells (MsgV.zero 0).row 34 (0, 0)) := by rw [hW, ← zero_row]; exact hg0
  have hb1 : Below w.heap.size w W2 := by rw [hW]; exact hbA
  have hR := h.below hb1 hlt
  have hK : Kept b w W2 := Kept.of hb1
  have hzb : w.heap.size ≠ b := by omega
  have hgl : w.heap.size + 1 < W2.heap.size := (Array.getElem?_eq_some_iff.1 hG).1
  obtain ⟨g, hg⟩ : ∃ g, w.heap.size + 1 = g := ⟨_, rfl⟩
  simp only [hg] at hG hgl ⊢
  have hgb : g ≠ b := by omega
  have hgz : g ≠ w.heap.size := by omega
  have hwg : w.heap.size ≤ g := by omega
  have hzg : w.heap.size < g := by omega
  have hblg : b < g := by omega
  clear hW hz0 hg0 hbA hb1 h hg
  go_upto_region 3 with (first | (go_at_call 53; refine (hasAck_any _ _).mono ?_; rintro e w8 ⟨rfl, rfl⟩) | (go_at_call 94; refine (hasNext_any _ _).mono ?_; rintro e w8 ⟨rfl, rfl⟩) | (go_at_call 96; refine (hasClose_any _ _).mono ?_; rintro e w8 ⟨rfl, rfl⟩) | (go_at_call 78; refine (C1 _ hR).mono ?_; rintro e w1 ⟨rfl, hR, hk⟩; have hG := hk.row5 hG hgb; have hZ := hk.row5 hZ hzb; have hgl := Nat.lt_of_lt_of_le hgl hk.size; have hK := hK.trans hk; have qk : World.cell? _ ⟨g, 0, none⟩ = some (Value.int .i64 0) := (cell_heap hG 0).trans rfl; have fk := frozen_heap hG 0))
  refine wp_nameE _ (fun W3 hX => ?_)
  have hR : RAt b W3 s a1 e1 := by rw [hX]; exact hR.put hgb _
  have hZ : W3.heap[w.heap.size]? = some (.cells (MsgV.zero 0).row 34 (0, 0)) := by rw [hX]; exact row_oth hZ hgz
  have hK : Kept b w W3 := by rw [hX]; exact hK.setFar hwg
  have hG : W3.heap[g]? = some (.cells ((MsgV.zero kd).front ++ [Value.string ⟨#[]⟩, Value.int .i64 0, Value.string ⟨#[]⟩, Value.int .i64 0, Value.int .i64 0, Value.string ⟨#[]⟩, Value.int .i64 0, Value.int .i64 0, Value.string ⟨#[]⟩, Value.int .i64 0, Value.int .i64 0, Value.int .i64 0, Value.slice none 0 0, Value.int .i64 0, Value.slice none 0 0]).toArray 34 (0, 0)) := by rw [hX, ← zero_put kd]; exact row_put5 hG
  have hgl : g < W3.heap.size := (Array.getElem?_eq_some_iff.1 hG).1
  clear hX qk fk C1
  have hF : (MsgV.zero kd).front.length = 35 := MsgV.front_len _
  have q0 : W3.cell? ⟨g, 0, none⟩ = some (.int .i64 kd) := (cell_heap hG 0).trans rfl
  go_upto_region 9 with (first | (go_at_call 53; refine (hasAck_any _ _).mono ?_; rintro e w8 ⟨rfl, rfl⟩) | (go_at_call 94; refine (hasNext_any _ _).mono ?_; rintro e w8 ⟨rfl, rfl⟩) | (go_at_call 96; refine (hasClose_any _ _).mono ?_; rintro e w8 ⟨rfl, rfl⟩) | (go_at_call 102; refine (C2 _ hR).mono ?_; rintro e w1 ⟨rfl, hR, hk⟩; have hG := hk.row5 hG hgb; have hZ := hk.row5 hZ hzb; have hgl := Nat.lt_of_lt_of_le hgl hk.size; have hK := hK.trans hk; have f35 := frozen_heap hG 35; have m35 : World.cell? _ ⟨g, 35, none⟩ = some (Value.string ⟨#[]⟩) := back_cell hF hG 0; have f36 := frozen_heap hG 36; have m36 : World.cell? _ ⟨g, 36, none⟩ = some (Value.int .i64 0) := back_cell hF hG 1; have f37 := frozen_heap hG 37; have m37 : World.cell? _ ⟨g, 37, none⟩ = some (Value.string ⟨#[]⟩) := back_cell hF hG 2; have f38 := frozen_heap hG 38; have m38 : World.cell? _ ⟨g, 38, none⟩ = some (Value.int .i64 0) := back_cell hF hG 3; have f39 := frozen_heap hG 39; have m39 : World.cell? _ ⟨g, 39, none⟩ = some (Value.int .i64 0) := back_cell hF hG 4; have f40 := frozen_heap hG 40; have m40 : World.cell? _ ⟨g, 40, none⟩ = some (Value.string ⟨#[]⟩) := back_cell hF hG 5; have f41 := frozen_heap hG 41; have m41 : World.cell? _ ⟨g, 41, none⟩ = some (Value.int .i64 0) := back_cell hF hG 6; have f42 := frozen_heap hG 42; have m42 : World.cell? _ ⟨g, 42, none⟩ = some (Value.int .i64 0) := back_cell hF hG 7))
  refine wp_nameE _ (fun W4 hX => ?_)
  have hR : RAt b W4 s a2 e2 := by rw [hX]; exact ((((((((hR.put hgb _).put hgb _).put hgb _).put hgb _).put hgb _).put hgb _).put hgb _).put hgb _)
  have hZ : W4.heap[w.heap.size]? = some (.cells (MsgV.zero 0).row 34 (0, 0)) := by rw [hX]; exact (row_oth (row_oth (row_oth (row_oth (row_oth (row_oth (row_oth (row_oth hZ hgz) hgz) hgz) hgz) hgz) hgz) hgz) hgz)
  have hK : Kept b w W4 := by rw [hX]; exact ((((((((hK.setFar hwg).setFar hwg).setFar hwg).setFar hwg).setFar hwg).setFar hwg).setFar hwg).setFar hwg)
  have hG : W4.heap[g]? = some (.cells ((MsgV.zero kd).front ++ [Value.string sp, Value.int .i64 sc, Value.string dp, Value.int .i64 dc, Value.int .i64 sq, Value.string da, Value.int .i64 th, Value.int .i64 ta, Value.string ⟨#[]⟩, Value.int .i64 0, Value.int .i64 0, Value.int .i64 0, Value.slice none 0 0, Value.int .i64 0, Value.slice none 0 0]).toArray 34 (0, 0)) := by rw [hX]; exact (back_put hF (back_put hF (back_put hF (back_put hF (back_put hF (back_put hF (back_put hF (back_put hF hG 0 (.string sp)) 1 (.int .i64 sc)) 2 (.string dp)) 3 (.int .i64 dc)) 4 (.int .i64 sq)) 5 (.string da)) 6 (.int .i64 th)) 7 (.int .i64 ta))
  have hgl : g < W4.heap.size := (Array.getElem?_eq_some_iff.1 hG).1
  clear hX
  clear C2 f35 m35 f36 m36 f37 m37 f38 m38 f39 m39 f40 m40 f41 m41 f42 m42
  have q0 := (cell_heap hG 0).trans (show _ = some (Value.int .i64 kd) from rfl)
  go_upto_region 14 with (first | (go_at_call 53; refine (hasAck_any _ _).mono ?_; rintro e w8 ⟨rfl, rfl⟩) | (go_at_call 94; refine (hasNext_any _ _).mono ?_; rintro e w8 ⟨rfl, rfl⟩) | (go_at_call 96; refine (hasClose_any _ _).mono ?_; rintro e w8 ⟨rfl, rfl⟩) | (go_at_call 78; refine (C3 _ hR).mono ?_; rintro e w1 ⟨rfl, hR, hk⟩; have hG := hk.row5 hG hgb; have hZ := hk.row5 hZ hzb; have hgl := Nat.lt_of_lt_of_le hgl hk.size; have hK := hK.trans hk; have f45 := frozen_heap hG 45; have m45 : World.cell? _ ⟨g, 45, none⟩ = some (Value.int .i64 0) := back_cell hF hG 10))
  refine wp_nameE _ (fun W5 hX => ?_)
  have hR : RAt b W5 s a3 e3 := by rw [hX]; exact (hR.put hgb _)
  have hZ : W5.heap[w.heap.size]? = some (.cells (MsgV.zero 0).row 34 (0, 0)) := by rw [hX]; exact (row_oth hZ hgz)
  have hK : Kept b w W5 := by rw [hX]; exact (hK.setFar hwg)
  have hG : W5.heap[g]? = some (.cells ((MsgV.zero kd).front ++ [Value.string sp, Value.int .i64 sc, Value.string dp, Value.int .i64 dc, Value.int .i64 sq, Value.string da, Value.int .i64 th, Value.int .i64 ta, Value.string ⟨#[]⟩, Value.int .i64 0, Value.int .i64 he, Value.int .i64 0, Value.slice none 0 0, Value.int .i64 0, Value.slice none 0 0]).toArray 34 (0, 0)) := by rw [hX]; exact (back_put hF hG 10 (.int .i64 he))
  have hgl : g < W5.heap.size := (Array.getElem?_eq_some_iff.1 hG).1
  clear hX
  clear C3 f45 m45
  have q0 := (cell_heap hG 0).trans (show _ = some (Value.int .i64 kd) from rfl)
  obtain ⟨Bp, hBp⟩ : ∃ x, W5.heap.size = x := ⟨_, rfl⟩
  go_upto_region 15 with (first | (go_at_call 53; refine (hasAck_any _ _).mono ?_; rintro e w8 ⟨rfl, rfl⟩) | (go_at_call 94; refine (hasNext_any _ _).mono ?_; rintro e w8 ⟨rfl, rfl⟩) | (go_at_call 96; refine (hasClose_any _ _).mono ?_; rintro e w8 ⟨rfl, rfl⟩) | (go_at_call 104; refine (C4 _ hR).mono ?_; rintro e w1 ⟨pa, pn, pc, pxs, rfl, hpd, hL, hpn, hpc, hpM, hR, _, hk⟩; have hG := hk.row5 hG hgb; have hZ := hk.row5 hZ hzb; have hgl := Nat.lt_of_lt_of_le hgl hk.size; have hK := hK.trans hk; have f46 := frozen_heap hG 46; have m46 : World.cell? _ ⟨g, 46, none⟩ = some (Value.int .i64 0) := back_cell hF hG 11; have f47 := frozen_heap hG 47; have m47 : World.cell? _ ⟨g, 47, none⟩ = some (Value.slice none 0 0) := back_cell hF hG 12))
  rw [hBp] at hL
  have hgB : g < Bp := by omega
  have hbB : b < Bp := by omega
  have HPD := Lib.hid hpd
  clear hpd
  refine wp_nameE _ (fun W6 hX => ?_)
  have hR : RAt b W6 s a4 e4 := by rw [hX]; exact ((hR.put hgb _).put hgb _)
  have hZ : W6.heap[w.heap.size]? = some (.cells (MsgV.zero 0).row 34 (0, 0)) := by rw [hX]; exact (row_oth (row_oth hZ hgz) hgz)
  have hK : Kept b w W6 := by rw [hX]; exact ((hK.setFar hwg).setFar hwg)
  have hG : W6.heap[g]? = some (.cells ((MsgV.zero kd).front ++ [Value.string sp, Value.int .i64 sc, Value.string dp, Value.int .i64 dc, Value.int .i64 sq, Value.string da, Value.int .i64 th, Value.int .i64 ta, Value.string ⟨#[]⟩, Value.int .i64 0, Value.int .i64 he, Value.int .i64 pct, Value.slice pa pn pc, Value.int .i64 0, Value.slice none 0 0]).toArray 34 (0, 0)) := by rw [hX]; exact (back_put hF (back_put hF hG 11 (.int .i64 pct)) 12 (.slice pa pn pc))
  have hgl : g < W6.heap.size := (Array.getElem?_eq_some_iff.1 hG).1
  have hL : lvsHeld W6 Bp pa pxs := by rw [hX]; exact ((hL.same (SameT.put hgB) (SameT.put hgB)).same (SameT.put hgB) (SameT.put hgB))
  clear hX
  clear C4 f46 f47 m46 m47
  have q0 := (cell_heap hG 0).trans (show _ = some (Value.int .i64 kd) from rfl)
  obtain ⟨RW, hRW⟩ : ∃ q : MsgV, (⟨kd, 0, 0, zeroM, sp, sc, dp, dc, sq, da, th, ta, ⟨#[]⟩, 0, he, pct, pa, pn, pc, pxs, 0, none, 0, 0, []⟩ : MsgV) = q := ⟨_, rfl⟩
  have hG : W6.heap[g]? = some (.cells RW.row 34 (0, 0)) := by rw [← hRW, MsgV.row_split]; exact hG
  have hrg := rangeAt_row5 hG
  have HRW := Lib.hid hRW
  clear hRW
  go_wp2_with (first | (go_at_call 53; refine (hasAck_any _ _).mono ?_; rintro e w8 ⟨rfl, rfl⟩) | (go_at_call 94; refine (hasNext_any _ _).mono ?_; rintro e w8 ⟨rfl, rfl⟩) | (go_at_call 96; refine (hasClose_any _ _).mono ?_; rintro e w8 ⟨rfl, rfl⟩) | (refine wpList_load_mid rfl 34 (.tmp 3) rfl g 0 rfl RW.row.toList _ hrg Try.underlying34 rfl (msg_info _) ?_; rw [Array.toArray_toList]) | (refine wpList_storeRowTo (Z := RW.row) rfl (.tmp 2) (.tmp 50) 34 rfl (by rw [MsgV.row_size]; kernel_rfl) rfl (by rfl) hZ (by rw [MsgV.row_size, MsgV.row_size]) (MsgV.row_one _) ?_))
  have hZ2 := setRow_heap _ _ _ RW.row _ _ hZ
  have hrd := run_loadVar_mid (P := Try.prog) _ w.heap.size 0 34 RW.row.toList _ (rangeAt_row5 hZ2) Try.underlying34 rfl (msg_info _)
  rw [Array.toArray_toList] at hrd
  refine bodyPost_ret (v := .agg RW.row) ?_ rfl ?_
  · simp [results, Try.results57, asAddr]
    exact hrd
  have hRW := HRW.out
  subst hRW
  exact ⟨_, rfl, ⟨(hL.same (SameT.setRow (by omega)) (SameT.setRow (by omega))).at, hpn, hpc, hpM, LvsAt.nil _ _, rfl, Nat.le_refl _, Nat.zero_le _, by unfold maxLen; simp only; omega, by unfold maxLen; simp only; omega⟩, ⟨(hL.same (SameT.setRow (by omega)) (SameT.setRow (by omega))).mono (by omega), lvsHeld.nil _ _⟩, by unfold MsgV.d; simp only [HPD.out, List.map_nil]; rfl, hR.setRow hzb _, hK.setRow (Nat.le_refl _) _⟩
end Go.Proofs.Ythipnkbfdkmhaaa
