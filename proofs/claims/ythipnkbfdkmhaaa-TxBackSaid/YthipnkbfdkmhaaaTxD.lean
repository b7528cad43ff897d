/- Transactions out of bytes: what is read, what was written. -/
import Derived.Test.YthipnkbfdkmhaaaItems
import Derived.Test.YthipnkbfdkmhaaaMsgD
import Derived.Test.YthipnkbfdkmhaaaMsg12
namespace Go.Proofs.Ythipnkbfdkmhaaa
open Go.RowKit
set_option linter.unusedVariables false
theorem textF_at2 {v t : ByteArray} {A B : List UInt8} {most : Int} (hv : v.data.toList = A ++ (putL (t.size : Int) ++ t.data.toList) ++ B) (ht : t.size ≤ 2000000) (h2 : (t.size : Int) ≤ most) :
    textG v A.length 0 most = (t, (((A ++ (putL (t.size : Int) ++ t.data.toList)).length : Nat) : Int), 0) := by
  unfold textG textF
  rw [if_pos rfl]
  have hn := next_put (A := A) (B := t.data.toList ++ B) (show t.size ≤ 72057594037927935 by omega)
  rw [show A ++ putL ((t.size : Nat) : Int) ++ (t.data.toList ++ B) = v.data.toList by rw [hv]; simp] at hn
  have hsz : v.size = A.length + (putL (t.size : Int)).length + t.size + B.length := by rw [← str_len, hv]; simp; omega
  rw [hn]
  simp only [if_pos trivial]
  rw [if_neg (by omega), if_neg (by omega)]
  have hx := extract_mid' (T := v) (s := t) (A := A ++ putL ((t.size : Nat) : Int)) (B := B) (by rw [hv]; simp)
  rw [List.length_append] at hx
  rw [show (((A.length + (putL ((t.size : Nat) : Int)).length : Nat) : Int) + (t.size : Int)) = ((A.length + (putL ((t.size : Nat) : Int)).length + t.size : Nat) : Int) by omega]
  simp only [Int.toNat_natCast]
  rw [hx, List.length_append, List.length_append, str_len, Nat.add_assoc]
theorem text_codec2 (most : Int) (h1 : most ≤ 2000000) : Codec (fun s a e => textG s a e most) textB (fun t => (t.size : Int) ≤ most) := by
  refine ⟨fun {s A B x} hx hs => ?_, fun {s A x k} hx hs hk => ?_, fun {s a e} he => ?_, fun {s i a' x} hi' h => ?_⟩
  · have := textF_at2 (v := s) (t := x) (A := A) (B := B) (most := most) hs (by omega) hx
    rw [List.length_append] at this
    exact this
  · show (textG s A.length 0 most).2.2 = 2
    unfold textG textF
    rw [if_pos rfl]
    unfold textB at hs hk
    rcases Nat.lt_or_ge k (putL (x.size : Int)).length with hlt | hge
    · have hn := next_cuts (A := A) (x := x.size) (by omega) hlt
      rw [List.take_append_of_le_length (by omega)] at hs
      rw [← hs] at hn
      rw [hn]
      rfl
    · obtain ⟨j, rfl⟩ : ∃ j, k = (putL (x.size : Int)).length + j := ⟨k - (putL (x.size : Int)).length, by omega⟩
      rw [List.take_length_add_append, ← List.append_assoc] at hs
      rw [List.length_append, str_len] at hk
      have hn := next_put (A := A) (B := x.data.toList.take j) (show x.size ≤ 72057594037927935 by omega)
      rw [← hs] at hn
      have hsz : s.size = A.length + (putL (x.size : Int)).length + j := by
        rw [← str_len, hs, List.length_append, List.length_append, List.length_take, str_len]; omega
      rw [hn]
      simp only [if_pos trivial]
      rw [if_neg (by omega), if_pos (by omega)]
  · show (textG s a e most).2.2 = e
    unfold textG
    rw [if_neg he]
  · obtain ⟨_, g⟩ := textG_ok h
    obtain ⟨j, m, e1, e2, e3, e4, e5⟩ := textF_ok g
    obtain rfl : j = i := by omega
    exact ⟨e5, m, e2, e3, e4⟩
theorem item_codecT {α : Type} {dec : ByteArray → α × Int} {enc : α → List UInt8} {may : α → Bool} {z : α} {most : Int} (T : Codec (fun s a e => textG s a e most) textB (fun t => (t.size : Int) ≤ most))
    (h1 : ∀ x v, may x = true → v.data.toList = enc x → dec v = (x, 0)) (h2 : ∀ v, (dec v).2 = 0 → may (dec v).1 = true ∧ enc (dec v).1 = v.data.toList) (hl : ∀ x, may x = true → ((enc x).length : Int) ≤ most) :
    Codec (itemP dec z most) (fun x => textB ⟨(enc x).toArray⟩) (fun x => may x = true) := by
  refine ⟨fun {s A B x} hx hs => ?_, fun {s A x k} hx hs hk => ?_, fun {s a e} he => ?_, fun {s i a' x} hi' h => ?_⟩
  · have g : textG s A.length 0 most = _ := T.good (show (((⟨(enc x).toArray⟩ : ByteArray).size : Nat) : Int) ≤ most from hl x hx) hs
    unfold itemP
    simp only [g, if_pos]
    rw [h1 x ⟨(enc x).toArray⟩ hx (by simp)]
  · have g : (textG s A.length 0 most).2.2 = 2 := T.cut (show (((⟨(enc x).toArray⟩ : ByteArray).size : Nat) : Int) ≤ most from hl x hx) hs hk
    unfold itemP
    simp only [g]
    rw [if_neg (by decide)]
  · have g : (textG s a e most).2.2 = e := T.stay he
    unfold itemP
    simp only [g]
    rw [if_neg he]
  · unfold itemP at h
    obtain ⟨⟨t, a1, e1⟩, hx⟩ : ∃ t, textG s i 0 most = t := ⟨_, rfl⟩
    simp only [hx] at h
    by_cases he : e1 = 0
    · subst he
      rw [if_pos rfl] at h
      simp only [Prod.mk.injEq] at h
      obtain ⟨q1, q2, q3⟩ := h
      obtain ⟨m1, m2⟩ := h2 t q3
      rw [q1] at m1 m2
      obtain ⟨_, m, r1, r2, r3⟩ := T.back hi' hx
      refine ⟨m1, m, by rw [← q2]; exact r1, r2, ?_⟩
      rw [← r3]
      unfold textB
      rw [m2]
    · rw [if_neg he] at h
      simp only [Prod.mk.injEq] at h
      exact absurd h.2.2 he
def txItemD (x : MsgD) : List UInt8 := textB ⟨(msgDB x).toArray⟩
theorem msgDB_le {x : MsgD} (h : mayD x = true) : (msgDB x).length ≤ 6000 := by
  have hv : mayMsgB x.v = true := h
  obtain ⟨k1, k5, _⟩ := may_kd hv
  have := msgBy_le hv
  rwa [msgBy_d k1 k5, MsgD.v_d] at this
theorem txItem_d {m : MsgV} (h : mayMsgB m = true) : txItem m = txItemD m.d := by
  obtain ⟨k1, k5, _⟩ := may_kd h
  unfold txItem txItemD
  rw [msgBy_d k1 k5]
def txP : ByteArray → Int → Int → MsgD × Int × Int := itemP decMsg (MsgD.zero 0) 1048576
theorem txP_codec : Codec txP txItemD (fun x => mayD x = true) :=
  item_codecT (text_codec2 1048576 (by decide)) (fun x v hx hv => decMsg_enc hx hv) (fun v hv => decMsg_back hv) (fun x hx => by have := msgDB_le hx; omega)
def decTx (s : ByteArray) : List MsgD × Int :=
  if 1048576 < s.size then ([], 21) else
  if 64 < (numG s 0 0 0 72057594037927935).1 then ([], 22) else
  if endF s (listP txP (numG s 0 0 0 72057594037927935).1.toNat s (numG s 0 0 0 72057594037927935).2.1 (numG s 0 0 0 72057594037927935).2.2).2.1 (listP txP (numG s 0 0 0 72057594037927935).1.toNat s (numG s 0 0 0 72057594037927935).2.1 (numG s 0 0 0 72057594037927935).2.2).2.2 = 0 then ((listP txP (numG s 0 0 0 72057594037927935).1.toNat s (numG s 0 0 0 72057594037927935).2.1 (numG s 0 0 0 72057594037927935).2.2).1, 0)
  else ([], endF s (listP txP (numG s 0 0 0 72057594037927935).1.toNat s (numG s 0 0 0 72057594037927935).2.1 (numG s 0 0 0 72057594037927935).2.2).2.1 (listP txP (numG s 0 0 0 72057594037927935).1.toNat s (numG s 0 0 0 72057594037927935).2.1 (numG s 0 0 0 72057594037927935).2.2).2.2)
theorem decTx_err {s : ByteArray} (h : (decTx s).2 ≠ 0) : (decTx s).1 = [] := by
  unfold decTx at h ⊢
  split
  · rfl
  · rename_i h1
    rw [if_neg h1] at h
    split
    · rfl
    · rename_i h2
      rw [if_neg h2] at h
      split
      · rename_i h3; rw [if_pos h3] at h; exact absurd rfl h
      · rfl
theorem decTx_enc {l : List MsgD} (hl : l.length ≤ 64) (hm : ∀ x ∈ l, mayD x = true) {s : ByteArray} (hs : s.size ≤ 1048576) (hv : s.data.toList = putL (l.length : Int) ++ l.flatMap txItemD) : decTx s = (l, 0) := by
  have N := num_codec 0 72057594037927935 (by decide) (by decide)
  have L := list_codec txP_codec l.length
  have g1 := N.good (s := s) (A := []) (B := l.flatMap txItemD) (x := (l.length : Int)) ⟨by omega, by omega⟩ (by rw [hv]; simp)
  have g2 := L.good (s := s) (A := putL (l.length : Int)) (B := []) (x := l) ⟨rfl, hm⟩ (by rw [hv]; simp)
  simp only [List.length_nil, Nat.zero_add] at g1
  have g1' : numG s 0 0 0 72057594037927935 = ((l.length : Int), (((putL (l.length : Int)).length : Nat) : Int), 0) := g1
  have hE : endF s (((putL (l.length : Int)).length + (l.flatMap txItemD).length : Nat) : Int) 0 = 0 := by
    have : s.size = (putL (l.length : Int)).length + (l.flatMap txItemD).length := by rw [← str_len, hv, List.length_append]
    unfold endF
    rw [if_pos rfl, if_neg (by omega)]
  unfold decTx
  rw [if_neg (by omega), g1']
  simp only [Int.toNat_natCast]
  rw [if_neg (by omega), g2]
  simp only
  rw [hE, if_pos rfl]
theorem decTx_back {s : ByteArray} (h : (decTx s).2 = 0) : (decTx s).1.length ≤ 64 ∧ (∀ x ∈ (decTx s).1, mayD x = true) ∧ s.data.toList = putL ((decTx s).1.length : Int) ++ (decTx s).1.flatMap txItemD := by
  have N := num_codec 0 72057594037927935 (by decide) (by decide)
  obtain ⟨⟨n, a1, e1⟩, h1⟩ : ∃ t, numG s 0 0 0 72057594037927935 = t := ⟨_, rfl⟩
  obtain ⟨⟨l, a2, e2⟩, h2⟩ : ∃ t, listP txP n.toNat s a1 e1 = t := ⟨_, rfl⟩
  have hD : decTx s = if 1048576 < s.size then ([], 21) else if 64 < n then ([], 22) else if endF s a2 e2 = 0 then (l, 0) else ([], endF s a2 e2) := by
    unfold decTx
    rw [h1]
    simp only [h2]
  rw [hD] at h ⊢
  split at h
  · cases h
  rename_i c1
  split at h
  · cases h
  rename_i c2
  split at h
  · rename_i c3
    rw [if_neg c1, if_neg c2, if_pos c3]
    simp only
    obtain ⟨rfl, hend⟩ := endF_ok c3
    have L := list_codec txP_codec n.toNat
    by_cases he : e1 = 0
    · subst he
      obtain ⟨ok1, m, rfl, r2, r3⟩ := N.back (s := s) (i := 0) (x := n) (a' := a1) (Nat.zero_le _) h1
      obtain ⟨⟨k1, k2⟩, j, rfl, q2, q3⟩ := L.back (s := s) (i := 0 + m) (x := l) (a' := a2) r2 h2
      have hn : n = (l.length : Int) := by omega
      refine ⟨by omega, k2, ?_⟩
      rw [← hn, r3, q3, List.drop_zero, Nat.zero_add]
      have hjm : m + j = s.data.toList.length := by rw [str_len]; omega
      rw [List.take_of_length_le (l := s.data.toList.drop m) (by rw [List.length_drop]; omega), List.take_append_drop]
    · have := listP_stay (fun s a e (q : e ≠ 0) => txP_codec.stay (s := s) (a := a) q) n.toNat s a1 e1 he
      rw [h2] at this
      exact absurd this.symm he
  · rename_i c3
    exact absurd h c3
theorem flat_item {l : List MsgV} (h : l.all mayMsgB = true) : l.flatMap txItem = (l.map MsgV.d).flatMap txItemD := by
  induction l with
  | nil => rfl
  | cons m l ih =>
    rw [List.all_cons, Bool.and_eq_true] at h
    rw [List.flatMap_cons, List.map_cons, List.flatMap_cons, txItem_d h.1, ih h.2]
theorem all_mayD {l : List MsgV} (h : l.all mayMsgB = true) : ∀ x ∈ l.map MsgV.d, mayD x = true := fun x hx => by
  obtain ⟨m, hm, rfl⟩ := List.mem_map.1 hx
  rw [← may_eq]
  exact List.all_eq_true.1 h m hm
theorem txBy_le {l : List MsgV} (hl : l.length ≤ 64) (h : l.all mayMsgB = true) : (txBy l).length ≤ 400000 := by
  have h1 := txItems_le h
  have h2 := putL_len' (l.length : Int)
  unfold txBy
  rw [List.length_append]
  have : l.length * 6010 ≤ 64 * 6010 := Nat.mul_le_mul_right _ hl
  omega
theorem decTx_txBy {l : List MsgV} (hl : l.length ≤ 64) (h : l.all mayMsgB = true) : decTx ⟨(txBy l).toArray⟩ = (l.map MsgV.d, 0) := by
  have h1 := txBy_le hl h
  refine decTx_enc (by rw [List.length_map]; exact hl) (all_mayD h) (by rw [bytes_size]; omega) ?_
  show txBy l = _
  unfold txBy
  rw [List.length_map, flat_item h]
theorem encTx_back {s : ByteArray} (h : (decTx s).2 = 0) {l : List MsgV} (hl : l.map MsgV.d = (decTx s).1) : encTx l = (s, 0) := by
  obtain ⟨h1, h2, h3⟩ := decTx_back h
  rw [← hl] at h1 h2 h3
  rw [List.length_map] at h1 h3
  have ha : l.all mayMsgB = true := List.all_eq_true.2 (fun m hm => by rw [may_eq]; exact h2 _ (List.mem_map_of_mem hm))
  have hb : txBy l = s.data.toList := by unfold txBy; rw [h3, flat_item ha]
  unfold encTx
  rw [if_neg (by omega), ha, if_pos rfl, hb]
end Go.Proofs.Ythipnkbfdkmhaaa
