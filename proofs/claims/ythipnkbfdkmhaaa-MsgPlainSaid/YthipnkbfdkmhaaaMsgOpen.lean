/- Messages as they come in. -/
import Derived.Test.YthipnkbfdkmhaaaPkOpen
import Derived.Test.YthipnkbfdkmhaaaHashOpen
import Derived.Test.YthipnkbfdkmhaaaMsg1
namespace Go.Proofs.Ythipnkbfdkmhaaa
open Go.RowKit Go.ChangeShapes Go.WideShapes Go.Deep
theorem recs_ofP {α : Type} (f : α → List Value) (Q : α → Prop) : ∀ (rows : List (List Value)), (∀ r ∈ rows, ∃ p, r = f p ∧ Q p) → ∃ ps : List α, rows.flatten = ps.flatMap f ∧ ps.length = rows.length ∧ ∀ p ∈ ps, Q p := by
  intro rows
  induction rows with
  | nil => intro _; exact ⟨[], rfl, rfl, fun p hp => by cases hp⟩
  | cons r rows ih =>
    intro h
    obtain ⟨p, hp, hq⟩ := h r (List.mem_cons_self ..)
    obtain ⟨ps, h1, h2, h3⟩ := ih (fun r hr => h r (List.mem_cons_of_mem _ hr))
    refine ⟨p :: ps, by rw [List.flatten_cons, List.flatMap_cons, h1, hp], by simp [h2], fun q hq' => ?_⟩
    rcases List.mem_cons.1 hq' with rfl | hq'
    · exact hq
    · exact h3 q hq'
theorem drop_cut (r : List Value) (a b : Nat) : (r.drop a).take b ++ r.drop (a + b) = r.drop a := by
  rw [← List.drop_drop]; exact List.take_append_drop _ _
theorem Try.cellsHash : Try.prog.cellsOf 23 = 32 := by kernel_rfl
theorem Try.cellsLeaf : Try.prog.cellsOf 111 = 4 := by kernel_rfl
theorem Try.cellsPf : Try.prog.cellsOf 32 = 2 := by kernel_rfl
theorem Try.cellsHdr : Try.prog.cellsOf 25 = 34 := by kernel_rfl
theorem Try.cellsMsg : Try.prog.cellsOf 34 = 50 := by kernel_rfl
theorem Try.cellsHashes : Try.prog.cellsOf 109 = 1 := by kernel_rfl
theorem Try.cellsLeaves : Try.prog.cellsOf 30 = 1 := by kernel_rfl
section
variable {H : Type} {enc : TypeId × Value → H} {w : World} {base : Nat} {spare : Nat → Bool} {held : Bool}
theorem h32_open {r : List Value} (hl : r.length = Try.prog.cellsOf 23) (h : Reads enc Try.prog w base spare held 23 r) : ∃ q : H32, r = q.cells := by
  obtain ⟨q, hq, hr⟩ := h.bytes Try.underlying23 Try.underlying5 (by kernel_rfl) (by rw [hl, Try.cellsHash])
  exact ⟨⟨q, hq⟩, hr⟩
theorem leaf_open {r : List Value} (hl : r.length = Try.prog.cellsOf 111) (h : Reads enc Try.prog w base spare held 111 r) : ∃ x : LeafV, r = x.cells ∧ x.ok w := by
  rw [Try.cellsLeaf] at hl
  match r, hl with
  | [c0, c1, c2, c3], _ =>
    have h0 := h.field Try.underlying111 0 _ rfl
    have h1 := h.field Try.underlying111 1 _ rfl
    have h2 := h.field Try.underlying111 2 _ rfl
    have h3 := h.field Try.underlying111 3 _ rfl
    simp [Try.cellsInt, Try.cellsStr, Try.cellsHashes] at h0 h1 h2 h3
    obtain ⟨z0, e0, s0⟩ := h0.string Try.underlying9
    obtain ⟨z1, e1, s1⟩ := h1.string Try.underlying9
    obtain ⟨z2, e2, _⟩ := h2.int Try.underlying3
    obtain ⟨fuel, y, hf⟩ := h3
    obtain ⟨a, len, cap, hcs, hln, hm, rows, hrl, hrow, hr⟩ := open_recs Try.underlying109 hf
    simp at e0 e1 e2 hcs
    subst e0 e1 e2 hcs
    obtain ⟨es, e, hpl⟩ := recs_of H32.cells rows (fun r hr' => h32_open (hr r hr').1 (hr r hr').2)
    exact ⟨⟨_, _, _, a, len, cap, es⟩, rfl, by rw [← e]; exact hrow, by simpa [hpl] using hrl, hln, hm, s0, s1⟩
theorem pf_open {r : List Value} (hl : r.length = Try.prog.cellsOf 32) (h : Reads enc Try.prog w base spare held 32 r) :
    ∃ (ct : Int) (a : Option Addr) (n c : Nat) (xs : List LeafV), r = [.int .i64 ct, .slice a n c] ∧ LvsAt w a xs ∧ xs.length = n ∧ n ≤ c ∧ c ≤ maxLen := by
  rw [Try.cellsPf] at hl
  match r, hl with
  | [c0, c1], _ =>
    have h0 := h.field Try.underlying32 0 _ rfl
    have h1 := h.field Try.underlying32 1 _ rfl
    simp [Try.cellsInt, Try.cellsLeaves] at h0 h1
    obtain ⟨z0, e0, _⟩ := h0.int Try.underlying3
    obtain ⟨fuel, y, hf⟩ := h1
    obtain ⟨a, len, cap, hcs, hln, hm, rows, hrl, hrow, hr⟩ := open_recs Try.underlying30 hf
    simp at e0 hcs
    subst e0 hcs
    obtain ⟨es, e, hpl, hq⟩ := recs_ofP LeafV.cells (fun x => x.ok w) rows (fun r hr' => leaf_open (hr r hr').1 (hr r hr').2)
    exact ⟨_, _, _, _, es, rfl, ⟨by rw [← e]; exact hrow, hq⟩, by rw [hpl, hrl], hln, hm⟩
theorem hdr_open {r : List Value} (hl : r.length = Try.prog.cellsOf 25) (h : Reads enc Try.prog w base spare held 25 r) : ∃ (ht tm : Int) (q : H32), r = hdL ht tm q := by
  rw [Try.cellsHdr] at hl
  have h0 := h.field Try.underlying25 0 _ rfl
  have h1 := h.field Try.underlying25 1 _ rfl
  have h2 := h.field Try.underlying25 2 _ rfl
  simp only [List.getElem_toArray, List.getElem_cons_zero, List.getElem_cons_succ, Try.cellsInt, Try.cellsHash] at h0 h1 h2
  obtain ⟨z0, e0, _⟩ := h0.int Try.underlying3
  obtain ⟨z1, e1, _⟩ := h1.int Try.underlying3
  obtain ⟨q, e2⟩ := h32_open (by rw [Try.cellsHash, List.length_take, List.length_drop, hl]; rfl) h2
  refine ⟨z0, z1, q, ?_⟩
  unfold hdL
  have d0 := drop_cut r 0 1
  have d1 := drop_cut r 1 1
  have d2 := drop_cut r 2 32
  rw [List.drop_of_length_le (by omega : r.length ≤ 2 + 32), List.append_nil] at d2
  rw [show r = r.drop 0 from rfl, ← d0, show 0 + 1 = 1 from rfl, ← d1, show 1 + 1 = 2 from rfl, ← d2]
  rw [show (r.drop 0).take 1 = [.int .i64 z0] from e0, show (r.drop 1).take 1 = [.int .i64 z1] from e1, show (r.drop 2).take 32 = q.cells from e2]
  rfl
theorem msg_open {r : List Value} (hl : r.length = Try.prog.cellsOf 34) (h : Reads enc Try.prog w base spare held 34 r) : ∃ m : MsgV, r = m.L ∧ m.ok w := by
  rw [Try.cellsMsg] at hl
  have h0 := h.field Try.underlying34 0 _ rfl
  have h1 := h.field Try.underlying34 1 _ rfl
  have h2 := h.field Try.underlying34 2 _ rfl
  have h3 := h.field Try.underlying34 3 _ rfl
  have h4 := h.field Try.underlying34 4 _ rfl
  have h5 := h.field Try.underlying34 5 _ rfl
  have h6 := h.field Try.underlying34 6 _ rfl
  have h7 := h.field Try.underlying34 7 _ rfl
  simp only [List.getElem_toArray, List.getElem_cons_zero, List.getElem_cons_succ, Try.cellsInt, Try.cellsHdr, Try.cellsPkt, Try.cellsStr, Try.cellsPf] at h0 h1 h2 h3 h4 h5 h6 h7
  obtain ⟨kd, e0, _⟩ := h0.int Try.underlying3
  obtain ⟨hh, ht, rt, e1⟩ := hdr_open (by rw [Try.cellsHdr, List.length_take, List.length_drop, hl]; rfl) h1
  obtain ⟨sp, sc, dp, dc, sq, da, th, ta, e2, s1, s2, _⟩ := pkt_open (by rw [Try.cellsPkt, List.length_take, List.length_drop, hl]; rfl) h2
  obtain ⟨ack, e3, _⟩ := h3.string Try.underlying9
  obtain ⟨nx, e4, _⟩ := h4.int Try.underlying3
  obtain ⟨he, e5, _⟩ := h5.int Try.underlying3
  obtain ⟨pct, pa, pn, pc, pxs, e6, p1, p2, p3, p4⟩ := pf_open (by rw [Try.cellsPf, List.length_take, List.length_drop, hl]; rfl) h6
  obtain ⟨cct, ca, cn, cc, cxs, e7, c1, c2, c3, c4⟩ := pf_open (by rw [Try.cellsPf, List.length_take, List.length_drop, hl]; rfl) h7
  refine ⟨⟨kd, hh, ht, rt, sp, sc, dp, dc, sq, da, th, ta, ack, nx, he, pct, pa, pn, pc, pxs, cct, ca, cn, cc, cxs⟩, ?_, ⟨p1, p2, p3, p4, c1, c2, c3, c4, s1, s2⟩⟩
  have d0 := drop_cut r 0 1
  have d1 := drop_cut r 1 34
  have d2 := drop_cut r 35 8
  have d3 := drop_cut r 43 1
  have d4 := drop_cut r 44 1
  have d5 := drop_cut r 45 1
  have d6 := drop_cut r 46 2
  have d7 := drop_cut r 48 2
  rw [List.drop_of_length_le (by omega : r.length ≤ 48 + 2), List.append_nil] at d7
  rw [show r = r.drop 0 from rfl, ← d0, show 0 + 1 = 1 from rfl, ← d1, show 1 + 34 = 35 from rfl, ← d2, show 35 + 8 = 43 from rfl, ← d3, show 43 + 1 = 44 from rfl, ← d4, show 44 + 1 = 45 from rfl, ← d5, show 45 + 1 = 46 from rfl, ← d6, show 46 + 2 = 48 from rfl, ← d7]
  rw [show (r.drop 0).take 1 = [.int .i64 kd] from e0, show (r.drop 1).take 34 = hdL hh ht rt from e1, show (r.drop 35).take 8 = _ from e2, show (r.drop 43).take 1 = [.string ack] from e3, show (r.drop 44).take 1 = [.int .i64 nx] from e4, show (r.drop 45).take 1 = [.int .i64 he] from e5, show (r.drop 46).take 2 = _ from e6, show (r.drop 48).take 2 = _ from e7]
  unfold MsgV.L MsgV.back hdL
  simp
end
end Go.Proofs.Ythipnkbfdkmhaaa
