/- Ends as they come in. Packets as they come in. Headers that come in. A key of the program's table as it comes in. Events that come in as a list. -/
import Derived.Test.YtbckncopdkmoeaaRows
import Derived.Test.YtbckncopdkmoeaaOpen
import Derived.Test.YtbckncopdkmoeaaCnK
import Derived.Test.YtbckncopdkmoeaaEv2
namespace Go.Proofs.Ytbckncopdkmoeaa
open Go.RowKit Go.ChangeShapes Go.WideShapes Go.Deep

theorem Try.cellsEn : Try.prog.cellsOf 60 = 2 := by kernel_rfl
theorem Try.cellsInt : Try.prog.cellsOf 3 = 1 := by kernel_rfl
theorem Try.cellsStr : Try.prog.cellsOf 9 = 1 := by kernel_rfl

section
variable {H : Type} {enc : TypeId × Value → H} {w : World} {base : Nat} {spare : Nat → Bool} {held : Bool}
theorem int_bd {z : Int} (h : (Lit.int .i64 z).wf = true) : -9223372036854775808 ≤ z ∧ z ≤ 9223372036854775807 := by
  simpa [Lit.wf, IntKind.min, IntKind.max, IntKind.signed, IntKind.bits] using h
theorem end_open {r : List Value} (hl : r.length = Try.prog.cellsOf 60) (h : Reads enc Try.prog w base spare held 60 r) :
    ∃ (p : ByteArray) (c : Int), r = [.string p, .int .i64 c] ∧ p.size ≤ maxLen ∧ -9223372036854775808 ≤ c ∧ c ≤ 9223372036854775807 := by
  rw [Try.cellsEn] at hl
  match r, hl with
  | [c0, c1], _ =>
    have h0 := h.field Try.underlying60 0 _ rfl
    have h1 := h.field Try.underlying60 1 _ rfl
    simp [Try.cellsInt, Try.cellsStr] at h0 h1
    obtain ⟨z0, e0, s0⟩ := h0.string Try.underlying9
    obtain ⟨z1, e1, b1⟩ := h1.int Try.underlying3
    simp at e0 e1
    subst e0 e1
    exact ⟨z0, z1, rfl, s0, (int_bd b1).1, (int_bd b1).2⟩
end
end Go.Proofs.Ytbckncopdkmoeaa
namespace Go.Proofs.Ytbckncopdkmoeaa
open Go.RowKit Go.ChangeShapes Go.WideShapes Go.Deep

theorem Try.cellsPkt : Try.prog.cellsOf 74 = 8 := by kernel_rfl
section
variable {H : Type} {enc : TypeId × Value → H} {w : World} {base : Nat} {spare : Nat → Bool} {held : Bool}
theorem pkt_open {r : List Value} (hl : r.length = Try.prog.cellsOf 74) (h : Reads enc Try.prog w base spare held 74 r) :
    ∃ (sp : ByteArray) (sc : Int) (dp : ByteArray) (dc seq : Int) (dat : ByteArray) (th ta : Int), r = [.string sp, .int .i64 sc, .string dp, .int .i64 dc, .int .i64 seq, .string dat, .int .i64 th, .int .i64 ta] ∧ sp.size ≤ maxLen ∧ dp.size ≤ maxLen ∧ dat.size ≤ maxLen := by
  rw [Try.cellsPkt] at hl
  match r, hl with
  | [c0, c1, c2, c3, c4, c5, c6, c7], _ =>
    have h0 := h.field Try.underlying74 0 _ rfl
    have h1 := h.field Try.underlying74 1 _ rfl
    have h2 := h.field Try.underlying74 2 _ rfl
    have h3 := h.field Try.underlying74 3 _ rfl
    have h4 := h.field Try.underlying74 4 _ rfl
    have h5 := h.field Try.underlying74 5 _ rfl
    simp [Try.cellsInt, Try.cellsStr, Try.cellsEn] at h0 h1 h2 h3 h4 h5
    obtain ⟨z0, z1, e0, s0, _⟩ := end_open (by rw [Try.cellsEn]; rfl) h0
    obtain ⟨z2, z3, e1, s1, _⟩ := end_open (by rw [Try.cellsEn]; rfl) h1
    obtain ⟨z4, e2, _⟩ := h2.int Try.underlying3
    obtain ⟨z5, e3, s3⟩ := h3.string Try.underlying9
    obtain ⟨z6, e4, _⟩ := h4.int Try.underlying3
    obtain ⟨z7, e5, _⟩ := h5.int Try.underlying3
    simp at e0 e1 e2 e3 e4 e5
    obtain ⟨rfl, rfl⟩ := e0
    obtain ⟨rfl, rfl⟩ := e1
    subst e2 e3 e4 e5
    exact ⟨z0, z1, z2, z3, z4, z5, z6, z7, rfl, s0, s1, s3⟩
end
end Go.Proofs.Ytbckncopdkmoeaa
namespace Go.Proofs.Ytbckncopdkmoeaa
open Go.RowKit Go.ChangeShapes Go.WideShapes Go.Deep
theorem Try.cellsHdr : Try.prog.cellsOf 43 = 34 := by kernel_rfl
theorem Try.cellsHsh : Try.prog.cellsOf 41 = 32 := by kernel_rfl
theorem Try.cellsIntH : Try.prog.cellsOf 3 = 1 := by kernel_rfl
theorem recs_ofP {α : Type} (f : α → List Value) (Q : α → Prop) : ∀ (rows : List (List Value)), (∀ r ∈ rows, ∃ p, r = f p ∧ Q p) → ∃ ps : List α, rows.flatten = ps.flatMap f ∧ ps.length = rows.length ∧ ∀ p ∈ ps, Q p := by
  intro rows
  induction rows with
  | nil => intro _; exact ⟨[], rfl, rfl, fun p hp => by cases hp⟩
  | cons r rows ih =>
    intro h
    obtain ⟨p, hp, hq⟩ := h r (List.mem_cons_self ..)
    obtain ⟨ps, h1, h2, h3⟩ := ih (fun r hr => h r (List.mem_cons_of_mem _ hr))
    refine ⟨p :: ps, by rw [List.flatten_cons, List.flatMap_cons, h1, hp], by simp [h2], fun q hq' => ?_⟩
    rcases List.mem_cons.1 hq' with rfl | hq'
    · exact hq
    · exact h3 q hq'
section
variable {H : Type} {enc : TypeId × Value → H} {P : Program} {w : World} {base : Nat} {spare : Nat → Bool} {held : Bool}
theorem Reads.bytes {t e : TypeId} {n : Nat} {r : List Value} (h : Reads enc P w base spare held t r) (ht : P.underlying t = some (.array n e)) (he : P.underlying e = some (.int .u8)) (hce : P.cellsOf e = 1) (hr : r.length = n) :
    ∃ q : List UInt8, q.length = n ∧ r = Lib.byteCells q := by
  obtain ⟨m, y, h⟩ := h
  obtain ⟨xs, k, _, _, _, hlen, hf⟩ := DataW.trod_array ht h
  have key : ∀ i, i < n → ∃ c : UInt8, r[i]? = some (.int .u8 (c.toNat : Int)) := fun i hi => by
    have hx := hf i hi
    rw [hce, Nat.mul_one] at hx
    obtain ⟨c, hc⟩ : ∃ c, xs[i]? = some c := ⟨_, List.getElem?_eq_getElem (by omega)⟩
    rw [hc] at hx
    obtain ⟨z, h1, _, h2⟩ := DataW.trod_int he hx
    have hz : 0 ≤ z ∧ z ≤ 255 := by simpa [Lit.wf, IntKind.min, IntKind.max, IntKind.signed, IntKind.bits] using h2
    refine ⟨UInt8.ofNat z.toNat, ?_⟩
    have h3 : ((r.drop i).take 1)[0]? = some (.int .u8 z) := by rw [h1]; rfl
    rw [List.getElem?_take_of_lt (by omega), List.getElem?_drop, Nat.add_zero] at h3
    rw [h3]
    congr 2
    rw [UInt8.toNat_ofNat', Nat.mod_eq_of_lt (by omega)]
    omega
  obtain ⟨q, hq, hp⟩ := list_of n (fun i (c : UInt8) => r[i]? = some (.int .u8 (c.toNat : Int))) key
  refine ⟨q, hq, ?_⟩
  apply List.ext_getElem?
  intro i
  rcases Nat.lt_or_ge i n with hi | hi
  · have hqi : q[i]? = some q[i] := List.getElem?_eq_getElem (by omega)
    rw [hp i _ hqi]
    unfold Lib.byteCells
    rw [List.getElem?_map, hqi]; rfl
  · rw [List.getElem?_eq_none (by omega), List.getElem?_eq_none (by rw [Lib.byteCells_length]; omega)]
theorem hd_open {r : List Value} (hl : r.length = Try.prog.cellsOf 43) (h : Reads enc Try.prog w base spare held 43 r) : ∃ x : Hd, r = x.L ∧ x.wf := by
  rw [Try.cellsHdr] at hl
  have h0 := h.field Try.underlying43 0 _ rfl
  have h1 := h.field Try.underlying43 1 _ rfl
  have h2 := h.field Try.underlying43 2 _ rfl
  simp [Try.cellsIntH, Try.cellsHsh] at h0 h1 h2
  obtain ⟨z0, e0, w0⟩ := h0.int Try.underlying3
  obtain ⟨z1, e1, w1⟩ := h1.int Try.underlying3
  obtain ⟨q, hq, e2⟩ := h2.bytes Try.underlying41 Try.underlying5 (by kernel_rfl) (by rw [List.length_take, List.length_drop]; omega)
  match r, hl with
  | c0 :: c1 :: r, hl =>
    simp at e0 e1 e2
    have hrl : r.length = 32 := by simpa using hl
    rw [List.take_of_length_le (by omega)] at e2
    subst e0 e1
    exact ⟨⟨z0, z1, ⟨q, hq⟩⟩, by rw [e2]; rfl, w0, w1⟩
end
end Go.Proofs.Ytbckncopdkmoeaa
namespace Go.Proofs.Ytbckncopdkmoeaa
open Go.RowKit Go.ChangeShapes Go.WideShapes Go.Deep

theorem Try.cellsLky : Try.prog.cellsOf 62 = 4 := by kernel_rfl
theorem Try.cellsBoK : Try.prog.cellsOf 4 = 1 := by kernel_rfl
section
variable {H : Type} {enc : TypeId × Value → H} {w : World} {base : Nat} {spare : Nat → Bool} {held : Bool}
theorem lky_open {r : List Value} (hl : r.length = Try.prog.cellsOf 62) (h : Reads enc Try.prog w base spare held 62 r) :
    ∃ (p : ByteArray) (c : Int) (u : Bool) (s : Int), r = [.string p, .int .i64 c, .bool u, .int .i64 s] ∧ p.size ≤ maxLen ∧ (-9223372036854775808 ≤ c ∧ c ≤ 9223372036854775807) ∧ -9223372036854775808 ≤ s ∧ s ≤ 9223372036854775807 := by
  rw [Try.cellsLky] at hl
  match r, hl with
  | [c0, c1, c2, c3], _ =>
    have h0 := h.field Try.underlying62 0 _ rfl
    have h1 := h.field Try.underlying62 1 _ rfl
    have h2 := h.field Try.underlying62 2 _ rfl
    simp [Try.cellsInt, Try.cellsEn, Try.cellsBoK] at h0 h1 h2
    obtain ⟨z0, z1, e0, s0, d0, d1⟩ := end_open (by rw [Try.cellsEn]; rfl) h0
    obtain ⟨z2, e1⟩ := h1.bool Try.underlying4
    obtain ⟨z3, e2, b2⟩ := h2.int Try.underlying3
    simp at e0 e1 e2
    obtain ⟨rfl, rfl⟩ := e0
    subst e1 e2
    exact ⟨z0, z1, z2, z3, rfl, s0, ⟨d0, d1⟩, (int_bd b2).1, (int_bd b2).2⟩
end
end Go.Proofs.Ytbckncopdkmoeaa
namespace Go.Proofs.Ytbckncopdkmoeaa
open Go.RowKit Go.ChangeShapes Go.WideShapes Go.Deep
theorem Try.cellsEvt : Try.prog.cellsOf 76 = 13 := by kernel_rfl
section
variable {H : Type} {enc : TypeId × Value → H} {w : World} {base : Nat} {spare : Nat → Bool} {held : Bool}
theorem ev_openC {r : List Value} (hl : r.length = Try.prog.cellsOf 76) (h : Reads enc Try.prog w base spare held 76 r) :
    ∃ e : Ev, r = e.cells ∧ True := by
  rw [Try.cellsEvt] at hl
  match r, hl with
  | [c0, c1, c2, c3, c4, c5, c6, c7, c8, c9, c10, c11, c12], _ =>
    have h0 := h.field Try.underlying76 0 _ rfl
    have h1 := h.field Try.underlying76 1 _ rfl
    have h2 := h.field Try.underlying76 2 _ rfl
    have h3 := h.field Try.underlying76 3 _ rfl
    have h4 := h.field Try.underlying76 4 _ rfl
    simp [Try.cellsInt, Try.cellsStr, Try.cellsEn, Try.cellsPkt] at h0 h1 h2 h3 h4
    obtain ⟨z0, e0, _⟩ := h0.int Try.underlying3
    obtain ⟨sp, sc, dp, dc, sq, da, th, ta, e1, s1, s2, _⟩ := pkt_open (by rw [Try.cellsPkt]; rfl) h1
    obtain ⟨z9, e2, _⟩ := h2.string Try.underlying9
    obtain ⟨z10, z11, e3, s3, _⟩ := end_open (by rw [Try.cellsEn]; rfl) h3
    obtain ⟨z12, e4, _⟩ := h4.int Try.underlying3
    simp at e0 e1 e2 e3 e4
    subst e0 e2 e4
    obtain ⟨rfl, rfl, rfl, rfl, rfl, rfl, rfl, rfl⟩ := e1
    obtain ⟨rfl, rfl⟩ := e3
    exact ⟨⟨_, _, _, _, _, _, _, _, _, _, _, _, _⟩, rfl, trivial⟩
end
end Go.Proofs.Ytbckncopdkmoeaa
