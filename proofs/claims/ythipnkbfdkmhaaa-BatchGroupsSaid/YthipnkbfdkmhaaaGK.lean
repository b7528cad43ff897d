/- Transactions out of bytes: what is read, what was written. The next message of a transaction. The messages of a transaction. -/
import Derived.Test.YthipnkbfdkmhaaaItems
import Derived.Test.YthipnkbfdkmhaaaMsgD
import Derived.Test.YthipnkbfdkmhaaaMsg12
import Derived.BigRegion
import Derived.RegionTactic
import Derived.Deep.Upon
import Derived.Deep.MidRow
import Derived.WalkKit
import Derived.ProofKit
import Derived.Handy
import Derived.Below
import Derived.Lib.Hide
import Derived.IntWalk
import Derived.Outline
import Derived.WalkLawsBesides
import Derived.WalkSpells
import Derived.LoopTactic
import Derived.BigFrame
namespace Go.Proofs.Ythipnkbfdkmhaaa
open Go.RowKit
set_option linter.unusedVariables false
theorem textF_at2 {v t : ByteArray} {A B : List UInt8} {most : Int} (hv : v.data.toList = A ++ (putL (t.size : Int) ++ t.data.toList) ++ B) (ht : t.size ≤ 2000000) (h2 : (t.size : Int) ≤ most) :
    textG v A.length 0 most = (t, (((A ++ (putL (t.size : Int) ++ t.data.toList)).length : Nat) : Int), 0) := by
  unfold textG textF
  rw [if_pos rfl]
  have hn := next_put (A := A) (B := t.data.toList ++ B) (show t.size ≤ 72057594037927935 by omega)
  rw [show A ++ putL ((t.size : Nat) : Int) ++ (t.data.toList ++ B) = v.data.toList by rw [hv]; simp] at hn
  have hsz : v.size = A.length + (putL (t.size : Int)).length + t.size + B.length := by rw [← str_len, hv]; simp; omega
  rw [hn]
  simp only [if_pos trivial]
  rw [if_neg (by omega), if_neg (by omega)]
  have hx := extract_mid' (T := v) (s := t) (A := A ++ putL ((t.size : Nat) : Int)) (B := B) (by rw [hv]; simp)
  rw [List.length_append] at hx
  rw [show (((A.length + (putL ((t.size : Nat) : Int)).length : Nat) : Int) + (t.size : Int)) = ((A.length + (putL ((t.size : Nat) : Int)).length + t.size : Nat) : Int) by omega]
  simp only [Int.toNat_natCast]
  rw [hx, List.length_append, List.length_append, str_len, Nat.add_assoc]
theorem text_codec2 (most : Int) (h1 : most ≤ 2000000) : Codec (fun s a e => textG s a e most) textB (fun t => (t.size : Int) ≤ most) := by
  refine ⟨fun {s A B x} hx hs => ?_, fun {s A x k} hx hs hk => ?_, fun {s a e} he => ?_, fun {s i a' x} hi' h => ?_⟩
  · have := textF_at2 (v := s) (t := x) (A := A) (B := B) (most := most) hs (by omega) hx
    rw [List.length_append] at this
    exact this
  · show (textG s A.length 0 most).2.2 = 2
    unfold textG textF
    rw [if_pos rfl]
    unfold textB at hs hk
    rcases Nat.lt_or_ge k (putL (x.size : Int)).length with hlt | hge
    · have hn := next_cuts (A := A) (x := x.size) (by omega) hlt
      rw [List.take_append_of_le_length (by omega)] at hs
      rw [← hs] at hn
      rw [hn]
      rfl
    · obtain ⟨j, rfl⟩ : ∃ j, k = (putL (x.size : Int)).length + j := ⟨k - (putL (x.size : Int)).length, by omega⟩
      rw [List.take_length_add_append, ← List.append_assoc] at hs
      rw [List.length_append, str_len] at hk
      have hn := next_put (A := A) (B := x.data.toList.take j) (show x.size ≤ 72057594037927935 by omega)
      rw [← hs] at hn
      have hsz : s.size = A.length + (putL (x.size : Int)).length + j := by
        rw [← str_len, hs, List.length_append, List.length_append, List.length_take, str_len]; omega
      rw [hn]
      simp only [if_pos trivial]
      rw [if_neg (by omega), if_pos (by omega)]
  · show (textG s a e most).2.2 = e
    unfold textG
    rw [if_neg he]
  · obtain ⟨_, g⟩ := textG_ok h
    obtain ⟨j, m, e1, e2, e3, e4, e5⟩ := textF_ok g
    obtain rfl : j = i := by omega
    exact ⟨e5, m, e2, e3, e4⟩
theorem item_codecT {α : Type} {dec : ByteArray → α × Int} {enc : α → List UInt8} {may : α → Bool} {z : α} {most : Int} (T : Codec (fun s a e => textG s a e most) textB (fun t => (t.size : Int) ≤ most))
    (h1 : ∀ x v, may x = true → v.data.toList = enc x → dec v = (x, 0)) (h2 : ∀ v, (dec v).2 = 0 → may (dec v).1 = true ∧ enc (dec v).1 = v.data.toList) (hl : ∀ x, may x = true → ((enc x).length : Int) ≤ most) :
    Codec (itemP dec z most) (fun x => textB ⟨(enc x).toArray⟩) (fun x => may x = true) := by
  refine ⟨fun {s A B x} hx hs => ?_, fun {s A x k} hx hs hk => ?_, fun {s a e} he => ?_, fun {s i a' x} hi' h => ?_⟩
  · have g : textG s A.length 0 most = _ := T.good (show (((⟨(enc x).toArray⟩ : ByteArray).size : Nat) : Int) ≤ most from hl x hx) hs
    unfold itemP
    simp only [g, if_pos]
    rw [h1 x ⟨(enc x).toArray⟩ hx (by simp)]
  · have g : (textG s A.length 0 most).2.2 = 2 := T.cut (show (((⟨(enc x).toArray⟩ : ByteArray).size : Nat) : Int) ≤ most from hl x hx) hs hk
    unfold itemP
    simp only [g]
    rw [if_neg (by decide)]
  · have g : (textG s a e most).2.2 = e := T.stay he
    unfold itemP
    simp only [g]
    rw [if_neg he]
  · unfold itemP at h
    obtain ⟨⟨t, a1, e1⟩, hx⟩ : ∃ t, textG s i 0 most = t := ⟨_, rfl⟩
    simp only [hx] at h
    by_cases he : e1 = 0
    · subst he
      rw [if_pos rfl] at h
      simp only [Prod.mk.injEq] at h
      obtain ⟨q1, q2, q3⟩ := h
      obtain ⟨m1, m2⟩ := h2 t q3
      rw [q1] at m1 m2
      obtain ⟨_, m, r1, r2, r3⟩ := T.back hi' hx
      refine ⟨m1, m, by rw [← q2]; exact r1, r2, ?_⟩
      rw [← r3]
      unfold textB
      rw [m2]
    · rw [if_neg he] at h
      simp only [Prod.mk.injEq] at h
      exact absurd h.2.2 he
def txItemD (x : MsgD) : List UInt8 := textB ⟨(msgDB x).toArray⟩
theorem msgDB_le {x : MsgD} (h : mayD x = true) : (msgDB x).length ≤ 6000 := by
  have hv : mayMsgB x.v = true := h
  obtain ⟨k1, k5, _⟩ := may_kd hv
  have := msgBy_le hv
  rwa [msgBy_d k1 k5, MsgD.v_d] at this
theorem txItem_d {m : MsgV} (h : mayMsgB m = true) : txItem m = txItemD m.d := by
  obtain ⟨k1, k5, _⟩ := may_kd h
  unfold txItem txItemD
  rw [msgBy_d k1 k5]
def txP : ByteArray → Int → Int → MsgD × Int × Int := itemP decMsg (MsgD.zero 0) 1048576
theorem txP_codec : Codec txP txItemD (fun x => mayD x = true) :=
  item_codecT (text_codec2 1048576 (by decide)) (fun x v hx hv => decMsg_enc hx hv) (fun v hv => decMsg_back hv) (fun x hx => by have := msgDB_le hx; omega)
def decTx (s : ByteArray) : List MsgD × Int :=
  if 1048576 < s.size then ([], 21) else
  if 64 < (numG s 0 0 0 72057594037927935).1 then ([], 22) else
  if endF s (listP txP (numG s 0 0 0 72057594037927935).1.toNat s (numG s 0 0 0 72057594037927935).2.1 (numG s 0 0 0 72057594037927935).2.2).2.1 (listP txP (numG s 0 0 0 72057594037927935).1.toNat s (numG s 0 0 0 72057594037927935).2.1 (numG s 0 0 0 72057594037927935).2.2).2.2 = 0 then ((listP txP (numG s 0 0 0 72057594037927935).1.toNat s (numG s 0 0 0 72057594037927935).2.1 (numG s 0 0 0 72057594037927935).2.2).1, 0)
  else ([], endF s (listP txP (numG s 0 0 0 72057594037927935).1.toNat s (numG s 0 0 0 72057594037927935).2.1 (numG s 0 0 0 72057594037927935).2.2).2.1 (listP txP (numG s 0 0 0 72057594037927935).1.toNat s (numG s 0 0 0 72057594037927935).2.1 (numG s 0 0 0 72057594037927935).2.2).2.2)
theorem decTx_err {s : ByteArray} (h : (decTx s).2 ≠ 0) : (decTx s).1 = [] := by
  unfold decTx at h ⊢
  split
  · rfl
  · rename_i h1
    rw [if_neg h1] at h
    split
    · rfl
    · rename_i h2
      rw [if_neg h2] at h
      split
      · rename_i h3; rw [if_pos h3] at h; exact absurd rfl h
      · rfl
theorem decTx_enc {l : List MsgD} (hl : l.length ≤ 64) (hm : ∀ x ∈ l, mayD x = true) {s : ByteArray} (hs : s.size ≤ 1048576) (hv : s.data.toList = putL (l.length : Int) ++ l.flatMap txItemD) : decTx s = (l, 0) := by
  have N := num_codec 0 72057594037927935 (by decide) (by decide)
  have L := list_codec txP_codec l.length
  have g1 := N.good (s := s) (A := []) (B := l.flatMap txItemD) (x := (l.length : Int)) ⟨by omega, by omega⟩ (by rw [hv]; simp)
  have g2 := L.good (s := s) (A := putL (l.length : Int)) (B := []) (x := l) ⟨rfl, hm⟩ (by rw [hv]; simp)
  simp only [List.length_nil, Nat.zero_add] at g1
  have g1' : numG s 0 0 0 72057594037927935 = ((l.length : Int), (((putL (l.length : Int)).length : Nat) : Int), 0) := g1
  have hE : endF s (((putL (l.length : Int)).length + (l.flatMap txItemD).length : Nat) : Int) 0 = 0 := by
    have : s.size = (putL (l.length : Int)).length + (l.flatMap txItemD).length := by rw [← str_len, hv, List.length_append]
    unfold endF
    rw [if_pos rfl, if_neg (by omega)]
  unfold decTx
  rw [if_neg (by omega), g1']
  simp only [Int.toNat_natCast]
  rw [if_neg (by omega), g2]
  simp only
  rw [hE, if_pos rfl]
theorem decTx_back {s : ByteArray} (h : (decTx s).2 = 0) : (decTx s).1.length ≤ 64 ∧ (∀ x ∈ (decTx s).1, mayD x = true) ∧ s.data.toList = putL ((decTx s).1.length : Int) ++ (decTx s).1.flatMap txItemD := by
  have N := num_codec 0 72057594037927935 (by decide) (by decide)
  obtain ⟨⟨n, a1, e1⟩, h1⟩ : ∃ t, numG s 0 0 0 72057594037927935 = t := ⟨_, rfl⟩
  obtain ⟨⟨l, a2, e2⟩, h2⟩ : ∃ t, listP txP n.toNat s a1 e1 = t := ⟨_, rfl⟩
  have hD : decTx s = if 1048576 < s.size then ([], 21) else if 64 < n then ([], 22) else if endF s a2 e2 = 0 then (l, 0) else ([], endF s a2 e2) := by
    unfold decTx
    rw [h1]
    simp only [h2]
  rw [hD] at h ⊢
  split at h
  · cases h
  rename_i c1
  split at h
  · cases h
  rename_i c2
  split at h
  · rename_i c3
    rw [if_neg c1, if_neg c2, if_pos c3]
    simp only
    obtain ⟨rfl, hend⟩ := endF_ok c3
    have L := list_codec txP_codec n.toNat
    by_cases he : e1 = 0
    · subst he
      obtain ⟨ok1, m, rfl, r2, r3⟩ := N.back (s := s) (i := 0) (x := n) (a' := a1) (Nat.zero_le _) h1
      obtain ⟨⟨k1, k2⟩, j, rfl, q2, q3⟩ := L.back (s := s) (i := 0 + m) (x := l) (a' := a2) r2 h2
      have hn : n = (l.length : Int) := by omega
      refine ⟨by omega, k2, ?_⟩
      rw [← hn, r3, q3, List.drop_zero, Nat.zero_add]
      have hjm : m + j = s.data.toList.length := by rw [str_len]; omega
      rw [List.take_of_length_le (l := s.data.toList.drop m) (by rw [List.length_drop]; omega), List.take_append_drop]
    · have := listP_stay (fun s a e (q : e ≠ 0) => txP_codec.stay (s := s) (a := a) q) n.toNat s a1 e1 he
      rw [h2] at this
      exact absurd this.symm he
  · rename_i c3
    exact absurd h c3
theorem flat_item {l : List MsgV} (h : l.all mayMsgB = true) : l.flatMap txItem = (l.map MsgV.d).flatMap txItemD := by
  induction l with
  | nil => rfl
  | cons m l ih =>
    rw [List.all_cons, Bool.and_eq_true] at h
    rw [List.flatMap_cons, List.map_cons, List.flatMap_cons, txItem_d h.1, ih h.2]
theorem all_mayD {l : List MsgV} (h : l.all mayMsgB = true) : ∀ x ∈ l.map MsgV.d, mayD x = true := fun x hx => by
  obtain ⟨m, hm, rfl⟩ := List.mem_map.1 hx
  rw [← may_eq]
  exact List.all_eq_true.1 h m hm
theorem txBy_le {l : List MsgV} (hl : l.length ≤ 64) (h : l.all mayMsgB = true) : (txBy l).length ≤ 400000 := by
  have h1 := txItems_le h
  have h2 := putL_len' (l.length : Int)
  unfold txBy
  rw [List.length_append]
  have : l.length * 6010 ≤ 64 * 6010 := Nat.mul_le_mul_right _ hl
  omega
theorem decTx_txBy {l : List MsgV} (hl : l.length ≤ 64) (h : l.all mayMsgB = true) : decTx ⟨(txBy l).toArray⟩ = (l.map MsgV.d, 0) := by
  have h1 := txBy_le hl h
  refine decTx_enc (by rw [List.length_map]; exact hl) (all_mayD h) (by rw [bytes_size]; omega) ?_
  show txBy l = _
  unfold txBy
  rw [List.length_map, flat_item h]
theorem encTx_back {s : ByteArray} (h : (decTx s).2 = 0) {l : List MsgV} (hl : l.map MsgV.d = (decTx s).1) : encTx l = (s, 0) := by
  obtain ⟨h1, h2, h3⟩ := decTx_back h
  rw [← hl] at h1 h2 h3
  rw [List.length_map] at h1 h3
  have ha : l.all mayMsgB = true := List.all_eq_true.2 (fun m hm => by rw [may_eq]; exact h2 _ (List.mem_map_of_mem hm))
  have hb : txBy l = s.data.toList := by unfold txBy; rw [h3, flat_item ha]
  unfold encTx
  rw [if_neg (by omega), ha, if_pos rfl, hb]
end Go.Proofs.Ythipnkbfdkmhaaa
namespace Go.Proofs.Ythipnkbfdkmhaaa
open Go.RowKit
attribute [local go_sem] strV
set_option linter.unusedVariables false
/-- Behind the reading of the next message: what it returns, where the reader stands. -/
def nextPost (b : Nat) (w : World) (s : ByteArray) (at_ : Int) (e : Ending) (w' : World) : Prop :=
  ∃ m : MsgV, e = .returned (.tuple #[.agg m.row, .int .i64 (txP s at_ 0).2.2]) ∧ m.ok w' ∧ m.heldM w' w.heap.size ∧ m.d = (txP s at_ 0).1 ∧ ((txP s at_ 0).2.2 = 0 → RAt b w' s (txP s at_ 0).2.1 0) ∧ Kept b w w'
set_option maxRecDepth 100000 in
set_option maxHeartbeats 6400000 in
theorem mnext_any (b : Nat) (w : World) (s : ByteArray) (at_ : Int) (hR : RAt b w s at_ 0) (hs : s.size ≤ 1000000000) :
    Calls Try.prog 79 #[.pointer (some ⟨b, 0, none⟩)] w fun e w' => nextPost b w s at_ e w' := by
  have C1 := fun W h => rtext_all b W s at_ 0 1048576 h hs
  have hsz := textG_size s at_ 0 1048576
  obtain ⟨⟨t, a1, e1⟩, h1⟩ : ∃ x, textG s at_ 0 1048576 = x := ⟨_, rfl⟩
  have hI : txP s at_ 0 = if e1 = 0 then ((decMsg t).1, a1, (decMsg t).2) else (MsgD.zero 0, a1, e1) := by
    unfold txP itemP
    simp only [h1]
  rw [h1] at hsz
  simp only at hsz
  simp only [h1] at C1
  have CD := fun W => msgDecode_any t W (by omega)
  have HI := Lib.hid hI
  clear h1 hI
  have hlt := hR.lt
  have hz0 := heap_push w #[.int .i64 0, .int .i64 0, .int .i64 0, .int .u8 0, .int .u8 0, .int .u8 0, .int .u8 0, .int .u8 0, .int .u8 0, .int .u8 0, .int .u8 0, .int .u8 0, .int .u8 0, .int .u8 0, .int .u8 0, .int .u8 0, .int .u8 0, .int .u8 0, .int .u8 0, .int .u8 0, .int .u8 0, .int .u8 0, .int .u8 0, .int .u8 0, .int .u8 0, .int .u8 0, .int .u8 0, .int .u8 0, .int .u8 0, .int .u8 0, .int .u8 0, .int .u8 0, .int .u8 0, .int .u8 0, .int .u8 0, .string ⟨#[]⟩, .int .i64 0, .string ⟨#[]⟩, .int .i64 0, .int .i64 0, .string ⟨#[]⟩, .int .i64 0, .int .i64 0, .string ⟨#[]⟩, .int .i64 0, .int .i64 0, .int .i64 0, .slice none 0 0, .int .i64 0, .slice none 0 0] 34
  have hbA : Below w.heap.size w (w.alloc (.cells #[.int .i64 0, .int .i64 0, .int .i64 0, .int .u8 0, .int .u8 0, .int .u8 0, .int .u8 0, .int .u8 0, .int .u8 0, .int .u8 0, .int .u8 0, .int .u8 0, .int .u8 0, .int .u8 0, .int .u8 0, .int .u8 0, .int .u8 0, .int .u8 0, .int .u8 0, .int .u8 0, .int .u8 0, .int .u8 0, .int .u8 0, .int .u8 0, .int .u8 0, .int .u8 0, .int .u8 0, .int .u8 0, .int .u8 0, .int .u8 0, .int .u8 0, .int .u8 0, .int .u8 0, .int .u8 0, .int .u8 0, .string ⟨#[]⟩, .int .i64 0, .string ⟨#[]⟩, .int .i64 0, .int .i64 0, .string ⟨#[]⟩, .int .i64 0, .int .i64 0, .string ⟨#[]⟩, .int .i64 0, .int .i64 0, .int .i64 0, .slice none 0 0, .int .i64 0, .slice none 0 0] 34)) := Below.alloc (Below.refl _ _) (Nat.le_refl _) _
  go_enter Try.func79, Try.ntmps79
  go_upto_region 1 with fail
  refine wp_nameE _ (fun W1 hX => ?_)
  have hZ : W1.heap[w.heap.size]? = some (.cells (MsgV.zero 0).row 34 (0, 0)) := by rw [hX, ← zero_row]; exact hz0
  have hb1 : Below w.heap.size w W1 := by rw [hX]; exact hbA
  have hR := hR.below hb1 hlt
  have hK : Kept b w W1 := Kept.of hb1
  have hzb : w.heap.size ≠ b := by omega
  clear hX hz0 hbA hb1
  go_upto_region 2 with (go_at_call 103; refine (C1 _ hR).mono ?_; rintro e w2 ⟨rfl, hR, hk⟩; have hZ := hk.row5 hZ hzb; have hK := hK.trans hk)
  have CX := rerr_any _ _ _ _ _ hR
  have hzl : w.heap.size < w2.heap.size := (Array.getElem?_eq_some_iff.1 hZ).1
  by_cases hE : e1 = 0
  · subst hE
    have HI2 : Hid (txP s at_ 0 = ((decMsg t).1, a1, (decMsg t).2)) := Lib.hid (by rw [HI.out, if_pos rfl])
    obtain ⟨ed, hed⟩ : ∃ x, (decMsg t).2 = x := ⟨_, rfl⟩
    unfold decPost at CD
    simp only [hed] at CD
    rw [hed] at HI2
    clear hed
    go_wp2_with (first | (go_at_call 116; refine CX.mono ?_; rintro e wx ⟨rfl, hwx⟩; obtain rfl : _ = wx := hwx.symm) | (go_at_call 18; refine (CD _).mono ?_; rintro e w3 ⟨m, rfl, hm, hmh, hmd, hb3⟩; have hZ := cells_of hZ hb3 hzl; have hR := hR.below hb3 hR.lt; have hK := hK.trans (Kept.of hb3)) | (refine wpList_storeRowTo (Z := m.row) rfl (.tmp 2) (.tmp 16) 34 rfl (by rw [MsgV.row_size]; kernel_rfl) rfl (by rfl) hZ (by simp only [MsgV.row_size]) (MsgV.row_one _) ?_))
    have hZ2 := setRow_heap _ _ _ m.row _ _ hZ
    have hrd := run_loadVar_mid (P := Try.prog) _ w.heap.size 0 34 m.row.toList _ (rangeAt_row5 hZ2) Try.underlying34 rfl (by rw [Array.length_toList, MsgV.row_size]; kernel_rfl)
    rw [Array.toArray_toList] at hrd
    refine bodyPost_ret (v := .tuple #[.agg m.row, .int .i64 ed]) ?_ rfl ?_
    · simp [results, Try.results79, asAddr, hrd]
      try rfl
    have hmh := hmh.same (SameT.setRow (cs := m.row) hzl) (SameT.setRow hzl)
    exact ⟨m, by rw [HI2.out], hm.held hmh, hmh.mono (Nat.le_of_lt hzl), by rw [HI2.out]; exact hmd, fun _ => by rw [HI2.out]; exact hR.setRow hzb _, hK.setRow (Nat.le_refl _) _⟩
  · have hE0 : (e1 == 0) = false := beq_eq_false_iff_ne.2 hE
    have HI2 : Hid (txP s at_ 0 = (MsgD.zero 0, a1, e1)) := Lib.hid (by rw [HI.out, if_neg hE])
    go_upto_region 4 with (go_at_call 116; refine CX.mono ?_; rintro e wx ⟨rfl, hwx⟩; obtain rfl : _ = wx := hwx.symm)
    go_step
    refine wpList_build0 rfl 34 rfl (build_msg0 _) ?_
    simp only [Act.put, List.setIfInBounds_toArray, List.set_cons_succ, List.set_cons_zero]
    go_wp2_with (refine wpList_storeRowTo (Z := (MsgV.zero 0).row) rfl (.tmp 2) (.tmp 12) 34 rfl (by rw [MsgV.row_size]; kernel_rfl) rfl (by rfl) hZ (by simp only [MsgV.row_size]) (MsgV.row_one _) ?_)
    have hZ2 := setRow_heap _ _ _ (MsgV.zero 0).row _ _ hZ
    have hrd := run_loadVar_mid (P := Try.prog) _ w.heap.size 0 34 (MsgV.zero 0).row.toList _ (rangeAt_row5 hZ2) Try.underlying34 rfl (by rw [Array.length_toList, MsgV.row_size]; kernel_rfl)
    rw [Array.toArray_toList] at hrd
    refine bodyPost_ret (v := .tuple #[.agg (MsgV.zero 0).row, .int .i64 e1]) ?_ rfl ?_
    · simp [results, Try.results79, asAddr, hrd]
      try rfl
    exact ⟨MsgV.zero 0, by rw [HI2.out], msg_ok_zero 0 _, ⟨lvsHeld.nil _ _, lvsHeld.nil _ _⟩, by rw [HI2.out]; rfl, fun h => absurd (by rw [HI2.out] at h; exact h) hE, hK.setRow (Nat.le_refl _) _⟩
end Go.Proofs.Ythipnkbfdkmhaaa
namespace Go.Proofs.Ythipnkbfdkmhaaa
open Go.RowKit
attribute [local go_sem] strV
set_option linter.unusedVariables false
theorem Try.infoMsg : (Try.prog.info? 34).map (fun i => (i.zero, i.size, i.bytes)) = some (some (.agg #[.int .i64 0, .int .i64 0, .int .i64 0, .int .u8 0, .int .u8 0, .int .u8 0, .int .u8 0, .int .u8 0, .int .u8 0, .int .u8 0, .int .u8 0, .int .u8 0, .int .u8 0, .int .u8 0, .int .u8 0, .int .u8 0, .int .u8 0, .int .u8 0, .int .u8 0, .int .u8 0, .int .u8 0, .int .u8 0, .int .u8 0, .int .u8 0, .int .u8 0, .int .u8 0, .int .u8 0, .int .u8 0, .int .u8 0, .int .u8 0, .int .u8 0, .int .u8 0, .int .u8 0, .int .u8 0, .int .u8 0, .string ⟨#[]⟩, .int .i64 0, .string ⟨#[]⟩, .int .i64 0, .int .i64 0, .string ⟨#[]⟩, .int .i64 0, .int .i64 0, .string ⟨#[]⟩, .int .i64 0, .int .i64 0, .int .i64 0, .slice none 0 0, .int .i64 0, .slice none 0 0]), 50, 240) := by kernel_rfl
theorem one_msg (R : Array Value) (hR : R.size = 50) (W : World) : (Instr.buildSlice 48 1 #[(0, .agg R)]).run Try.prog W = .ok (.slice (some ⟨W.heap.size, 0, none⟩) 1 1) (W.alloc (.cells R 34)) := by
  have h1 := fun Z hZ => fold_atN R Z hR hZ
  simp [go_sem, hR, h1]
theorem numG_val {s : ByteArray} {a e m : Int} : 0 ≤ (numG s a e 0 m).1 ∧ ((numG s a e 0 m).2.2 ≠ 0 → (numG s a e 0 m).1 = 0) := by
  unfold numG
  by_cases he : e = 0
  · rw [if_pos he]
    unfold numF
    simp only
    by_cases hr : (nextS s.data.toList a).2.2 = 0
    · rw [if_pos hr]
      by_cases hv : (nextS s.data.toList a).1 < 0 ∨ m < (nextS s.data.toList a).1
      · rw [if_pos hv]; exact ⟨Int.le_refl _, fun _ => rfl⟩
      · rw [if_neg hv]; exact ⟨by simp only; omega, fun h => absurd rfl h⟩
    · rw [if_neg hr]; exact ⟨Int.le_refl _, fun _ => rfl⟩
  · rw [if_neg he]; exact ⟨Int.le_refl _, fun _ => rfl⟩
/-- Behind the reading of a transaction. -/
def untxPost (w : World) (v : ByteArray) (e : Ending) (w' : World) : Prop :=
  ∃ (a : Option Addr) (n cap : Nat) (ms : List MsgV), e = .returned (.tuple #[.slice a n cap, .int .i64 (decTx v).2]) ∧ ms.length = n ∧ ms.map MsgV.d = (decTx v).1 ∧ RowAt w' a (ms.flatMap MsgV.cellsL) ∧ (∀ m ∈ ms, m.ok w') ∧ n ≤ cap ∧ cap ≤ maxLen ∧ Below w.heap.size w w'
set_option maxRecDepth 100000 in
set_option maxHeartbeats 12800000 in
theorem msgUntx_any (v : ByteArray) (w : World) (hv : v.size ≤ 1000000000) :
    Calls Try.prog 30 #[.string v] w fun e w' => untxPost w v e w' := by
  by_cases h20 : 1048576 < v.size
  · have d20 : decide (1048576 < (v.size : Int)) = true := decide_eq_true (by omega)
    have hD : decTx v = ([], 21) := by unfold decTx; rw [if_pos h20]
    unfold untxPost
    rw [hD]
    clear hD
    go_enter Try.func30, Try.ntmps30
    go_wp2
    go_returns
    exact ⟨none, 0, 0, [], rfl, rfl, rfl, RowAt.nil _ _, (fun m h => by cases h), Nat.le_refl _, Nat.zero_le _, Below.refl _ _⟩
  have d20 : decide (1048576 < (v.size : Int)) = false := decide_eq_false (by omega)
  have C4 := fun b W h => rnum_all b W v 0 0 0 72057594037927935 h hv
  have hcv := numG_val (s := v) (a := 0) (e := 0) (m := 72057594037927935)
  obtain ⟨⟨Ni, a4, e4⟩, h4⟩ : ∃ x, numG v 0 0 0 72057594037927935 = x := ⟨_, rfl⟩
  rw [h4] at hcv
  simp only at hcv
  obtain ⟨N, rfl⟩ : ∃ m : Nat, Ni = m := ⟨Ni.toNat, by omega⟩
  obtain ⟨⟨es, a5, e5⟩, h5⟩ : ∃ x, listP txP N v a4 e4 = x := ⟨_, rfl⟩
  have hD : decTx v = if 64 < (N : Int) then ([], 22) else if endF v a5 e5 = 0 then (es, 0) else ([], endF v a5 e5) := by
    unfold decTx
    rw [if_neg h20, h4]
    simp only [Int.toNat_natCast, h5]
  simp only [h4] at C4
  have HD := Lib.hid hD
  have H5 := Lib.hid h5
  have hNe : e4 ≠ 0 → N = 0 := fun q => by have := hcv.2 q; omega
  clear hD h4 h5 hcv
  obtain ⟨i0, hi, hz0', hz1, hz2⟩ := info_parts Try.infoMsg
  go_enter Try.func30, Try.ntmps30
  go_upto_region 4 with (go_at_call 56; refine (rof_any v _).mono ?_; rintro e wb ⟨rfl, hR, hbel⟩)
  obtain ⟨r, hr⟩ : ∃ r, w.heap.size = r := ⟨_, rfl⟩
  simp only [hr] at hR ⊢
  have hrw : w.heap.size ≤ r := by omega
  by_cases h64 : 64 < (N : Int)
  · have d64 : decide (64 < (N : Int)) = true := decide_eq_true h64
    have d64n : decide (64 < N) = true := decide_eq_true (by omega)
    have hDv : Hid (decTx v = ([], 22)) := Lib.hid (by rw [HD.out, if_pos h64])
    go_wp2_with (go_at_call 78; refine (C4 _ _ hR).mono ?_; rintro e w4 ⟨rfl, hR4, hk⟩; have hbel := hbel.trans (hk.below (by omega) hbel.size))
    go_returns
    exact ⟨none, 0, 0, [], by rw [hDv.out]; try rfl, rfl, by rw [hDv.out]; rfl, RowAt.nil _ _, (fun m h => by cases h), Nat.le_refl _, Nat.zero_le _, by first | exact hbel | (rw [hr]; exact hbel)⟩
  have d64 : decide (64 < (N : Int)) = false := decide_eq_false h64
  have d64n : decide (64 < N) = false := decide_eq_false (by omega)
  have hD := HD.out
  rw [if_neg h64] at hD
  have HD2 := Lib.hid hD
  clear HD
  have hN : N ≤ 64 := by omega
  clear hD
  go_upto_region 9 with (go_at_call 78; refine (C4 _ _ hR).mono ?_; rintro e w4 ⟨rfl, hR, hk⟩; have hbel := hbel.trans (hk.below (by omega) hbel.size))
  obtain ⟨base, hbase⟩ : ∃ b, w4.heap.size = b := ⟨_, rfl⟩
  have hrb : r < base := by rw [← hbase]; exact hR.lt
  go_loopw [6, 20] (fun l i wr => ∃ (k : Nat) (xs : List MsgV) (sv : Value) (ak ek : Int), k ≤ N ∧ xs.length = k ∧ (k < N → ek = 0) ∧ Hid (listP txP N v a4 e4 = (xs.map MsgV.d ++ (listP txP (N - k) v ak ek).1, (listP txP (N - k) v ak ek).2)) ∧ wr.ownsRow base 34 50 sv k (xs.flatMap MsgV.cellsL) ∧ (∀ x ∈ xs, x.ok wr ∧ x.heldM wr base) ∧ RAt r wr v ak ek ∧ base ≤ wr.heap.size ∧ Below w.heap.size w wr ∧ l = sv ∧ i = .int .i64 k) (fun _ i _ => N - (intOf i).toNat)
  case atStart => exact ⟨0, [], .slice none 0 0, a4, e4, Nat.zero_le _, rfl, (fun q => Classical.byContradiction fun h => by have := hNe h; omega), Lib.hid (by simp), ⟨rfl, .inl ⟨rfl, rfl⟩⟩, (fun e h => by cases h), hR, by omega, (by first | exact hbel | (rw [hr]; exact hbel)), rfl, rfl⟩
  case round =>
    clear hR hbel
    obtain ⟨k, xs, sv, ak, ek, hk, hxl, hek, HL, hown, hxs, hR, hbw, hbel, rfl, rfl⟩ := hrel
    by_cases hlt : k < N
    · have d1 : decide ((k : Int) < (N : Int)) = true := decide_eq_true (by omega)
      have d1n : decide (k < N) = true := decide_eq_true hlt
      obtain rfl := hek hlt
      have CN := mnext_any r wr v ak hR hv
      have hstay := fun (n : Nat) (a e : Int) (q : e ≠ 0) => listP_stay (P := txP) (fun s a e q => txP_codec.stay q) n v a e q
      obtain ⟨⟨q, an, en⟩, hI⟩ : ∃ x, txP v ak 0 = x := ⟨_, rfl⟩
      have hst := listP_step (P := txP) hlt hI
      unfold nextPost at CN
      simp only [hI] at CN
      have HST := Lib.hid hst
      clear hI hst
      go_upto_region 11 with (first | (go_at_call 79; refine CN.mono ?_; rintro e we ⟨m, rfl, hm, hmh, hmd, hR0, hk2⟩) | (refine wpList_storeRowTo (Z := m.row) rfl (.tmp 7) (.tmp 25) 34 rfl (by rw [MsgV.row_size]; kernel_rfl) rfl (by rfl) (heap_push _ _ _) (by rw [MsgV.row_size]; rfl) (MsgV.row_one _) ?_))
      have hown := own_far hown (fun j q1 q2 => hk2.block j q2 (by omega))
      have hxs : ∀ x ∈ xs, x.ok we ∧ x.heldM we base := fun x hx => by
        have g := (hxs x hx).2.same (SameT.kept hk2 hrb) (SameT.kept hk2 hrb)
        exact ⟨(hxs x hx).1.held g, g⟩
      have hmh := hmh.mono hbw
      have hbel := hbel.trans (hk2.below (by omega) hbel.size)
      have hbw := Nat.le_trans hbw hk2.size
      refine wp_nameE _ (fun W6 hX => ?_)
      have hb : Below we.heap.size we W6 := by rw [hX]; exact below_setRow (Below.alloc (Below.refl _ _) (Nat.le_refl _) _) (Nat.le_refl _) _
      have hE : W6.heap[we.heap.size]? = some (.cells m.row 34 (0, 0)) := by rw [hX]; exact setRow_heap _ _ _ _ _ _ (heap_push _ _ _)
      have hown := own_kept9 hown hb
      have hxs : ∀ x ∈ xs, x.ok W6 ∧ x.heldM W6 base := fun x hx => ⟨(hxs x hx).1.below hb, (hxs x hx).2.same (SameT.below hb) (SameT.below hb)⟩
      have hm := hm.below hb
      have hmh := hmh.same (SameT.below hb) (SameT.below hb)
      have hbel := hbel.trans (hb.mono hbel.size)
      have hbw6 := hbw
      have hbw := Nat.le_trans hbw hb.size
      have hR0 := fun q => (hR0 q).below hb (hR0 q).lt
      clear hX CN hR hk2
      obtain ⟨g, hgg⟩ : ∃ g, we.heap.size = g := ⟨_, rfl⟩
      rw [hgg] at hE
      simp only [hgg]
      clear hgg hb
      by_cases he : en = 0
      · subst he
        have hR := hR0 rfl
        have hL := HL.out
        rw [HST.out] at hL
        have HL := Lib.hid hL
        clear hL
        go_upto_region 13 with fail
        go_step
        go_step
        go_step
        go_step
        refine wpList_load_mid rfl 34 (.tmp 7) rfl g 0 rfl m.row.toList _ (rangeAt_row5 hE) Try.underlying34 rfl (msg_info _) ?_
        rw [Array.toArray_toList]
        refine wpList_one rfl (.tmp 31) 48 34 rfl (by rfl) (one_msg _ (MsgV.row_size _) _) ?_
        have hb : Below W6.heap.size W6 (W6.alloc (.cells m.row 34)) := Below.alloc (Below.refl _ _) (Nat.le_refl _) _
        have hg4 := heap_push W6 m.row 34
        obtain ⟨W7, hW7⟩ : ∃ W, W6.alloc (.cells m.row 34) = W := ⟨_, rfl⟩
        rw [hW7] at hb hg4 ⊢
        clear hW7
        have hown := own_kept9 hown hb
        have hxs : ∀ x ∈ xs, x.ok W7 ∧ x.heldM W7 base := fun x hx => ⟨(hxs x hx).1.below hb, (hxs x hx).2.same (SameT.below hb) (SameT.below hb)⟩
        have hm := hm.below hb
        have hmh := hmh.same (SameT.below hb) (SameT.below hb)
        have hbel := hbel.trans (hb.mono hbel.size)
        have hbw := Nat.le_trans hbw hb.size
        have hR := hR.below hb hR.lt
        have hnews : ∀ j u, m.cellsL[j]? = some u → W7.cell? ((⟨W6.heap.size, 0, none⟩ : Addr).add j) = some u := fun j u hj => by
          rw [Addr.add_mid, Nat.zero_add, cell_heap hg4, ← hj]
          unfold MsgV.cellsL
          rw [Array.getElem?_toList]
        simp only [Act.put, List.setIfInBounds_toArray, List.set_cons_succ, List.set_cons_zero]
        refine wpList_append_own _ rfl (.tmp 30) (.tmp 32) 48 rfl base 34 i0 (.agg #[.int .i64 0, .int .i64 0, .int .i64 0, .int .u8 0, .int .u8 0, .int .u8 0, .int .u8 0, .int .u8 0, .int .u8 0, .int .u8 0, .int .u8 0, .int .u8 0, .int .u8 0, .int .u8 0, .int .u8 0, .int .u8 0, .int .u8 0, .int .u8 0, .int .u8 0, .int .u8 0, .int .u8 0, .int .u8 0, .int .u8 0, .int .u8 0, .int .u8 0, .int .u8 0, .int .u8 0, .int .u8 0, .int .u8 0, .int .u8 0, .int .u8 0, .int .u8 0, .int .u8 0, .int .u8 0, .int .u8 0, .string ⟨#[]⟩, .int .i64 0, .string ⟨#[]⟩, .int .i64 0, .int .i64 0, .string ⟨#[]⟩, .int .i64 0, .int .i64 0, .string ⟨#[]⟩, .int .i64 0, .int .i64 0, .int .i64 0, .slice none 0 0, .int .i64 0, .slice none 0 0]) 50 240 Try.underlying48 hi hz0' hz1 hz2 rfl (by decide) _ _ _ rfl hown ⟨W6.heap.size, 0, none⟩ 1 1 m.cellsL rfl (by rw [MsgV.cells_len]) hnews (fun u hu => by have := (Array.all_eq_true_iff_forall_mem.1 (MsgV.row_one m)) u (by unfold MsgV.cellsL at hu; simpa using hu); exact this) (by unfold maxLen; omega) (by omega) hbw ?_
        intro v9 w9 hown9 hgr _
        have hb9 : Below base W7 w9 := below_grown hown hgr hbw
        have hs1 : SameT 23 base W7 w9 := SameT.grown hown hgr (by decide)
        have hs2 : SameT 111 base W7 w9 := SameT.grown hown hgr (by decide)
        clear hgr hnews
        obtain ⟨a9, cap9, hv9, _⟩ := own_slice hown9
        subst hv9
        have hR9 := hR.below hb9 hrb
        simp only [Act.put, List.setIfInBounds_toArray, List.set_cons_succ, List.set_cons_zero]
        go_wp2
        go_roundw
        case rel =>
          refine ⟨k + 1, xs ++ [m], .slice a9 (k + 1) cap9, an, 0, by omega, by simp [hxl], fun _ => rfl, Lib.hid (by rw [HL.out, ← hmd]; simp), ?_, fun x hx => ?_, hR9, Nat.le_trans hbw hb9.size, hbel.trans (hb9.mono (by omega)), rfl, by go_num⟩
          · rw [List.flatMap_append, List.flatMap_cons, List.flatMap_nil, List.append_nil]
            exact hown9
          · have key : ∀ y : MsgV, y.ok W7 → y.heldM W7 base → y.ok w9 ∧ y.heldM w9 base := fun y h1 h2 => ⟨h1.held (h2.same hs2 hs1), h2.same hs2 hs1⟩
            rcases List.mem_append.1 hx with q' | q'
            · exact key _ (hxs x q').1 (hxs x q').2
            · rw [List.mem_singleton.1 q']; exact key _ hm hmh
        case measure => (simp [intOf]) <;> omega
      · have e0 : (en == 0) = false := beq_eq_false_iff_ne.2 he
        have h55 : e5 = en := by
          have q := H5.out
          rw [HL.out, HST.out] at q
          simp only [Prod.mk.injEq] at q
          rw [← q.2.2]
          exact hstay _ _ _ he
        have hDv : Hid (decTx v = ([], en)) := Lib.hid (by
          rw [HD2.out, h55]
          have : endF v a5 en = en := by unfold endF; rw [if_neg he]
          rw [this, if_neg he])
        clear h55 hR0
        go_wp2
        go_returns
        exact ⟨none, 0, 0, [], by rw [hDv.out]; try rfl, rfl, by rw [hDv.out]; rfl, RowAt.nil _ _, (fun m h => by cases h), Nat.le_refl _, Nat.zero_le _, hbel⟩
    · obtain rfl : k = N := by omega
      have d1 : decide ((k : Int) < (k : Int)) = false := decide_eq_false (by omega)
      have d1n : decide (k < k) = false := decide_eq_false (by omega)
      have q := H5.out
      rw [HL.out, Nat.sub_self] at q
      simp only [listP, List.append_nil, Prod.mk.injEq] at q
      obtain ⟨q1, q2, q3⟩ := q
      subst q2 q3
      obtain ⟨a, cap, hsv, hrow, hkc, hcm, hab⟩ := own_slice hown
      subst hsv
      have CE := rend_any r wr v ak ek hR
      obtain ⟨E9, h9⟩ : ∃ E, endF v ak ek = E := ⟨_, rfl⟩
      have hD := HD2.out
      rw [h9, ← q1] at hD
      rw [h9] at CE
      have HD := Lib.hid hD
      clear hD h9 HD2 H5 HL hown q1
      by_cases hE : E9 = 0
      · subst hE
        have hDv : Hid (decTx v = (xs.map MsgV.d, 0)) := Lib.hid (by rw [HD.out, if_pos rfl])
        go_wp2_with (go_at_call 58; refine CE.mono ?_; rintro e w5 ⟨rfl, hb⟩)
        go_returns
        exact ⟨a, k, cap, xs, by rw [hDv.out]; try rfl, hxl, by rw [hDv.out], hrow.below hb, fun m hm => (hxs m hm).1.below hb, hkc, hcm, hbel.trans (hb.mono hbel.size)⟩
      · have hE0 : (E9 == 0) = false := beq_eq_false_iff_ne.2 hE
        have hDv : Hid (decTx v = ([], E9)) := Lib.hid (by rw [HD.out, if_neg hE])
        go_wp2_with (go_at_call 58; refine CE.mono ?_; rintro e w5 ⟨rfl, hb⟩)
        go_returns
        exact ⟨none, 0, 0, [], by rw [hDv.out]; try rfl, rfl, by rw [hDv.out]; rfl, RowAt.nil _ _, (fun m h => by cases h), Nat.le_refl _, Nat.zero_le _, hbel.trans (hb.mono hbel.size)⟩
end Go.Proofs.Ythipnkbfdkmhaaa
