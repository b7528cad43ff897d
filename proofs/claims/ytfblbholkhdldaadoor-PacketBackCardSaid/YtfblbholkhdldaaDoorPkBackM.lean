/- Two hashes, each a row of 32 bytes: are they the same? A region that draws its order, told by facts that stay true as memory grows, with one operation behind all others (a store). Readers and what they read, put together: what was written is read, what is read was written so, cut short it is none. Packets: when they are over, the law. leb.Eight and ligref1.Eight: eight bytes, the most significant one first. Ends as they come in. Packets as they come in. From a row's own facts to what sha asks of the world: its two tables. Packets in bytes and out of bytes, and their commitments. PacketBack, walked. -/
import Derived.Test.YtfblbholkhdldaaDoorReaderU
import Derived.Laws.StructEq
import Derived.WalkKit
import Derived.ProofKit
import Derived.Test.YtfblbholkhdldaaDoorPhi
import Derived.Test.YtfblbholkhdldaaDoorEndsF
import Derived.Test.YtfblbholkhdldaaDoorPacket
import Derived.BigQuiet
import Derived.Handy
import Derived.Below
import Derived.Lib.Hide
import Derived.IntWalk
import Derived.Outline
import Derived.WalkLawsBesides
import Derived.WalkSpells
import Derived.Test.YtfblbholkhdldaaDoorRows
import Derived.Test.YtfblbholkhdldaaDoorLebMath
import Derived.Test.YtfblbholkhdldaaDoorKit
import Derived.Test.YtfblbholkhdldaaDoorLebPut
import Derived.Test.YtfblbholkhdldaaDoorOpen
import Derived.Test.YtfblbholkhdldaaDoorSha3
import Derived.LaidMore
import Derived.Stop.LaidErr
import Derived.Test.YtfblbholkhdldaaDoorEvRP
import Derived.Test.YtfblbholkhdldaaDoorEvW
import Derived.Test.YtfblbholkhdldaaDoorSha7
namespace Go.Proofs.YtfblbholkhdldaaDoor
open Go.RowKit
def zrow32 : Array Value := #[.int .u8 0, .int .u8 0, .int .u8 0, .int .u8 0, .int .u8 0, .int .u8 0, .int .u8 0, .int .u8 0, .int .u8 0, .int .u8 0, .int .u8 0, .int .u8 0, .int .u8 0, .int .u8 0, .int .u8 0, .int .u8 0, .int .u8 0, .int .u8 0, .int .u8 0, .int .u8 0, .int .u8 0, .int .u8 0, .int .u8 0, .int .u8 0, .int .u8 0, .int .u8 0, .int .u8 0, .int .u8 0, .int .u8 0, .int .u8 0, .int .u8 0, .int .u8 0]
section
variable {P : Program} (w : World)
theorem run_part_int {e : TypeId} {k : IntKind} (he : P.underlying e = some (.int k)) (xs : Array Value) (i : Nat) (v : Value) (hv : xs[i]? = some v) : (part e xs i).run P w = .ok v w := by
  simp [part, isAgg, run_underlying he, hv]
theorem run_equalIn_bytes (d : Nat) (t e : TypeId) (n : Nat) (k : IntKind) (xs ys : Array Value) (f g : Nat → Int) (ht : P.underlying t = some (.array n e)) (he : P.underlying e = some (.int k)) (hsz : (P.info? e).map (·.size) = some 1)
    (hx : ∀ i, i < n → xs[i]? = some (.int k (f i))) (hy : ∀ i, i < n → ys[i]? = some (.int k (g i))) :
    (Op.equalIn (d + 2) t (.agg xs) (.agg ys)).run P w = .ok ((List.range' 0 n).all fun i => f i == g i) w := by
  obtain ⟨j, hj, hjs⟩ := Option.map_eq_some_iff.1 hsz
  have hso : (sizeOf e).run P w = .ok 1 w := by simp [sizeOf, typeInfo, hj, hjs]
  rw [Op.equalIn]
  simp only [Sem.run_bind, run_underlying ht, Result.andThen_ok, hso]
  rw [Std.Legacy.Range.forIn_eq_forIn_range']
  simp only [Std.Legacy.Range.size, Nat.sub_zero, Nat.add_sub_cancel, Nat.div_one]
  have hlt : ∀ i ∈ List.range' 0 n, i < n := fun i hi => by simpa using hi
  generalize List.range' 0 n = l at hlt ⊢
  induction l with
  | nil => simp
  | cons i l ih =>
    have hi := hlt i (List.mem_cons_self ..)
    have ihl := ih (fun j hj => hlt j (List.mem_cons_of_mem _ hj))
    simp only [List.forIn_cons, Sem.run_bind, Nat.mul_one, run_part_int w he xs i _ (hx i hi), run_part_int w he ys i _ (hy i hi), Result.andThen_ok, run_equalIn_int w d e k k (f i) (g i) he, Sem.run_ite, Sem.run_pure] at ihl ⊢
    cases hfg : (f i == g i)
    · simp [hfg]
    · simp [hfg]
      simpa using ihl
theorem hrow_at (l : List UInt8) (i : Nat) (h : i < l.length) : (hrow l)[i]? = some (.int .u8 (l.getD i 0).toNat) := by
  simp [hrow, Lib.byteCells, List.getElem?_eq_getElem h, List.getD]
theorem all_bytes : ∀ (n : Nat) (l m : List UInt8), l.length = n → m.length = n → ((List.range' 0 n).all fun i => (((l.getD i 0).toNat : Nat) : Int) == (((m.getD i 0).toNat : Nat) : Int)) = (l == m) := by
  intro n l m hl hm
  rw [Bool.eq_iff_iff]
  simp only [List.all_eq_true, List.mem_range', beq_iff_eq, Int.natCast_inj]
  constructor
  · intro h
    apply List.ext_getElem (by omega)
    intro i h1 h2
    have := h i ⟨i, by omega, by omega⟩
    simp only [List.getD, List.getElem?_eq_getElem h1, List.getElem?_eq_getElem h2, Option.getD_some] at this
    exact UInt8.toNat_inj.1 this
  · rintro rfl i _
    rfl
theorem run_equal_hash (t : TypeId) {e : TypeId} (l m : List UInt8) (hl : l.length = 32) (hm : m.length = 32) (ht : P.underlying t = some (.array 32 e)) (he : P.underlying e = some (.int .u8)) (hsz : (P.info? e).map (·.size) = some 1) :
    (Op.equalIn 10000 t (.agg (hrow l)) (.agg (hrow m))).run P w = .ok (l == m) w := by
  rw [run_equalIn_bytes w 9998 t e 32 .u8 (hrow l) (hrow m) (fun i => ((l.getD i 0).toNat : Nat)) (fun i => ((m.getD i 0).toNat : Nat)) ht he hsz (fun i hi => hrow_at l i (by omega)) (fun i hi => hrow_at m i (by omega)), all_bytes 32 l m hl hm]
end
theorem zrow_hrow : zrow32 = hrow (List.replicate 32 0) := by simp [zrow32, hrow, Lib.byteCells, List.replicate]
end Go.Proofs.YtfblbholkhdldaaDoor
namespace Go.Proofs.YtfblbholkhdldaaDoor
open Go.RowKit
section
variable {P : Program}
/-- Does operation o wait for each of the n before it? -/
def waitsAll (o : Oper) (n : Nat) : Bool := (List.range n).all fun j => waits o j
theorem wp_region_phi_tail {id : Nat} {Q : Exit → Act → World → Prop} {a : Act} {w : World} {l l0 : List Oper} {last : Oper} (hl : l = l0 ++ [last]) (Φ : Nat → Value → World → Prop) (hm : P.follows .mixedOrders = true)
    (hd : dstsOk l0 = true) (he : edgesOk 0 l = true) (hwt : waitsAll last l0.length = true)
    (up : ∀ i v x y, Φ i v x → Below x.heap.size x y → Φ i v y)
    (step : ∀ i o, l0[i]? = some o → ∀ (x : Nat → Value) (w' : World), Below w.heap.size w w' → (∀ e ∈ o.after.toList, Region.binds .any e = true → Φ e.on (x e.on) w') →
      wpList P l.toArray (fun e a' w'' => e = .normal ∧ ∃ v, a' = (fillFrom 0 l0 x a).put o.dst v ∧ Below w'.heap.size w' w'' ∧ Φ i v w'') [o] (fillFrom 0 l0 x a) w')
    (post : ∀ x w', Below w.heap.size w w' → (∀ i, i < l0.length → Φ i (x i) w') → wpList P l.toArray Q [last] (fillFrom 0 l0 x a) w') :
    (Code.region id l.toArray true).wp P Q a w := by
  rw [dstsOk, Bool.and_eq_true, decide_eq_true_eq] at hd
  obtain ⟨hds, hnd⟩ := hd
  have hln : l.length = l0.length + 1 := by rw [hl]; simp
  have hlast : l[l0.length]? = some last := by rw [hl]; simp
  have hfst : ∀ i, i < l0.length → l[i]? = l0[i]? := fun i hi => by rw [hl, List.getElem?_append_left hi]
  have allset : ∀ (listed : Array Bool), listed.size = l.length → (∀ j, j < l.length → listed.getD j false = true) → Region.ready .any l.toArray listed = [] := by
    intro listed hsz h
    rw [List.eq_nil_iff_forall_not_mem]
    intro j hj
    obtain ⟨h1, o, ho, _⟩ := mem_ready.1 hj
    have hjl : j < l.length := by
      have := (Array.getElem?_eq_some_iff.1 ho).1
      simpa using this
    have h2 := h j hjl
    have hjs : j < listed.size := by omega
    simp only [Array.getD, hjs, dif_pos] at h1 h2
    rw [show listed.getInternal j hjs = true from h2] at h1
    cases h1
  have key : ∀ (fuel : Nat) (listed : Array Bool) (x : Nat → Value) (w' : World), listed.size = l.length → listed.toList.count false ≤ fuel → listed.getD l0.length false = false → Below w.heap.size w w' →
      (∀ j, j < l0.length → listed.getD j false = true → Φ j (x j) w') → wpAny P .any l.toArray Q fuel listed (fillFrom 0 l0 x a) w' := by
    intro fuel
    have some_ready : ∀ (listed : Array Bool), listed.size = l.length → listed.getD l0.length false = false → Region.ready .any l.toArray listed ≠ [] := by
      intro listed hsz hn hr
      have all : ∀ j, j < l.length → listed.getD j false = true := by
        intro j
        induction j using Nat.strongRecOn with
        | _ j ihj =>
          intro hj
          cases hlj : listed.getD j false with
          | true => rfl
          | false =>
            exfalso
            have hmem : j ∈ Region.ready .any l.toArray listed := by
              rw [mem_ready]
              refine ⟨?_, l[j], by simp [hj], fun e hmem hb' => ?_⟩
              · have hjs : j < listed.size := by omega
                simp only [Array.getD, hjs, dif_pos] at hlj ⊢
                exact hlj
              · have hlt := edgesOk_lt l 0 he j l[j] (List.getElem?_eq_getElem hj) e (by simpa using hmem) hb'
                exact ihj e.on (by omega) (by omega)
            rw [hr] at hmem
            cases hmem
      rw [all l0.length (by omega)] at hn
      cases hn
    induction fuel with
    | zero =>
      intro listed x w' hsz hc hn _ _
      exfalso
      have hjs : l0.length < listed.size := by omega
      have hcount : 0 < listed.toList.count false := by
        rw [List.count_pos_iff]
        simp only [Array.getD, hjs, dif_pos] at hn
        rw [← hn]
        simp
      omega
    | succ fuel ih =>
      intro listed x w' hsz hc hn hb hΦ
      refine ⟨fun hr => absurd hr (some_ready listed hsz hn), fun i hi => ?_⟩
      obtain ⟨h1, o, ho, hdep⟩ := mem_ready.1 hi
      have hol : l[i]? = some o := by simpa using ho
      have hil : i < l.length := (List.getElem?_eq_some_iff.1 hol).1
      have his : i < listed.size := by omega
      by_cases hin : i = l0.length
      · subst hin
        obtain rfl : last = o := Option.some.inj (hlast.symm.trans hol)
        have hall : ∀ j, j < l0.length → listed.getD j false = true := fun j hj => by
          have h2 := List.all_eq_true.1 hwt j (List.mem_range.2 hj)
          simp only [waits, List.any_eq_true, Bool.and_eq_true, beq_iff_eq] at h2
          obtain ⟨e, he1, he2, he3⟩ := h2
          rw [← he2]; exact hdep e (by simpa using he1) he3
        have hp := post x w' hb (fun j hj => hΦ j hj (hall j hj))
        have hw : wpOp P l.toArray Q l0.length (wpList P l.toArray Q []) (fillFrom 0 l0 x a) w' := by unfold wpOp; simp only [ho]; exact hp
        refine wpOp_mono (fun a' w'' h' => ?_) hw
        have hr : Region.ready .any l.toArray (listed.setIfInBounds l0.length true) = [] := allset _ (by simpa using hsz) (fun j hj => by
          by_cases hji : j = l0.length
          · subst hji; simp [Array.getD, his]
          · rw [Array.getD_eq_getD_getElem?, Array.getElem?_setIfInBounds_ne (Ne.symm hji), ← Array.getD_eq_getD_getElem?]; exact hall j (by omega))
        cases fuel with
        | zero => exact ⟨hr, h'⟩
        | succ f => exact ⟨fun _ => h', fun k hk => by rw [hr] at hk; cases hk⟩
      have hi0 : i < l0.length := by omega
      have hol0 : l0[i]? = some o := by rw [← hfst i hi0]; exact hol
      have hst := step i o hol0 x w' hb (fun e hmem hb' => by
        have hlt := edgesOk_lt l 0 he i o hol e hmem hb'
        exact hΦ e.on (by omega) (hdep e (by simpa using hmem) hb'))
      have hnext : ∀ a' w'', (∃ v, a' = (fillFrom 0 l0 x a).put o.dst v ∧ Below w'.heap.size w' w'' ∧ Φ i v w'') →
          wpAny P .any l.toArray Q fuel (listed.setIfInBounds i true) a' w'' := by
        rintro a' w'' ⟨v, rfl, hb2, hv⟩
        have hs : o.dst.isSome = true := List.all_eq_true.1 hds o (List.mem_of_getElem? hol0)
        rw [fillFrom_set l0 0 x a i o v hol0 hs hnd]
        refine ih _ _ w'' (by simpa using hsz) ?_ ?_ (hb.trans (hb2.mono hb.size)) ?_
        · have : (listed.setIfInBounds i true).toList.count false + 1 = listed.toList.count false := by
            rw [Array.toList_setIfInBounds]
            have hg : listed.toList[i]? = some false := by
              simp only [Array.getD, his, dif_pos] at h1
              rw [List.getElem?_eq_getElem (by simpa using his)]
              simpa using h1
            have hil' : i < listed.toList.length := by simpa using his
            have hgi : listed.toList[i] = false := (List.getElem?_eq_some_iff.1 hg).2
            rw [List.count_set hil', hgi]
            have hpos : 0 < listed.toList.count false := by
              rw [List.count_pos_iff, ← hgi]; exact List.getElem_mem _
            have e1 : (false == false) = true := rfl
            have e2 : (true == false) = false := rfl
            rw [e1, e2]
            simp only [if_true, Bool.false_eq_true, if_false]
            omega
          omega
        · rw [Array.getD_eq_getD_getElem?, Array.getElem?_setIfInBounds_ne hin, ← Array.getD_eq_getD_getElem?]; exact hn
        · intro j hj0 hj
          by_cases hji : j = i
          · subst hji; simpa using hv
          · have hj' : listed.getD j false = true := by
              rw [Array.getD_eq_getD_getElem?, Array.getElem?_setIfInBounds_ne (Ne.symm hji), ← Array.getD_eq_getD_getElem?] at hj
              exact hj
            have := up j _ _ _ (hΦ j hj0 hj') hb2
            simpa [hji] using this
      unfold wpOp
      simp only [ho]
      unfold wpList at hst
      split
      · rename_i hw
        rw [if_pos hw] at hst
        rcases hst with hst | ⟨_, a'', w'', e, _⟩
        · exact .inl (wp_other (R := fun e a' w'' => e = .normal ∧ ∃ v, a' = (fillFrom 0 l0 x a).put o.dst v ∧ Below w'.heap.size w' w'' ∧ Φ i v w'') (fun a' w'' h => hnext a' w'' h.2) (fun e _ _ h => h.1) hst)
        · cases e
      · rename_i hw
        rw [if_neg hw] at hst
        exact hnext _ _ hst.2
  obtain ⟨x0, hx0⟩ := fillFrom_id l0 0 a hnd
  refine wp_region_any hm ?_
  have := key l.length (Array.replicate l.length false) x0 { w with drawn := w.drawn + 1 } (by simp) (by simp) (by simp [Array.getD, hln]) ((Below.refl w.heap.size w).drew) (fun j _ hj => by
    exfalso
    rcases Nat.lt_or_ge j l.length with h | h
    · simp [Array.getD, h] at hj
    · simp [Array.getD, Nat.not_lt.2 h] at hj)
  rw [hx0] at this
  simpa using this
end
theorem wp_region_facts_tail {P : Program} {id : Nat} {Q : Exit → Act → World → Prop} {a : Act} {w : World} {l : List Oper} {fr : (Nat → Value) → Act} {last : Oper} (n : Nat) (hl : l = l.take n ++ [last]) (F : List Fact) (hm : P.follows .mixedOrders = true)
    (hd : dstsOk (l.take n) = true) (he : edgesOk 0 l = true) (hwt : waitsAll last (l.take n).length = true) (hf : inFrame a.tmps.size (l.take n) = true) (hfr : ∀ x, fillFrom 0 (l.take n) x a = fr x) (steps : FrSteps P l F fr w 0 (l.take n))
    (post : ∀ x w', Below w.heap.size w w' → (∀ i, i < (l.take n).length → factAt F i (x i) w') → wpList P l.toArray Q (l.drop n) (fr x) w') : (Code.region id l.toArray true).wp P Q a w := by
  have hdrop : l.drop n = [last] := by
    have h1 : l.take n ++ l.drop n = l.take n ++ [last] := by rw [List.take_append_drop]; exact hl
    exact List.append_cancel_left h1
  refine wp_region_phi_tail hl (factAt F) hm hd he hwt (fun i v x y h hb => (F.getD i Fact.any).up v x y h hb) (fun i o ho x w' hb hdep => ?_)
    (fun x w' hb h => by rw [hfr, ← hdrop]; exact post x w' hb h)
  have hst := by simpa using frSteps_all (l.take n) 0 steps i o ho
  have h1 := hst x w' hb (fun j hj => by
    simp only [waits, List.any_eq_true, Bool.and_eq_true, beq_iff_eq] at hj
    obtain ⟨e, he1, he2, he3⟩ := hj
    rw [← he2]; exact hdep e he1 he3)
  rw [hfr]
  have hlt : ∀ d, o.dst = some d → d < (fr x).tmps.size := fun d hdo => by
    rw [← hfr, fillFrom_size]
    have := List.all_eq_true.1 hf o (List.mem_of_getElem? ho)
    rw [hdo] at this
    simpa using this
  have hsome : ∃ d, o.dst = some d := by
    have := List.all_eq_true.1 hf o (List.mem_of_getElem? ho)
    cases hdo : o.dst with
    | none => rw [hdo] at this; cases this
    | some d => exact ⟨d, rfl⟩
  obtain ⟨d, hdo⟩ := hsome
  have hget : ∀ v, ((fr x).put o.dst v).tmps.getD (o.dst.getD 0) undef = v := fun v => by
    rw [hdo]
    simp only [Act.put, Option.getD_some]
    rw [Array.getD_eq_getD_getElem?, Array.getElem?_setIfInBounds_self_of_lt (hlt d hdo)]; rfl
  unfold wpList at h1 ⊢
  split
  · rename_i hw
    rw [if_pos hw] at h1
    rcases h1 with h1 | ⟨_, a'', w'', e, _⟩
    · refine .inl (wp_put (R := FrPost (fr x).defers w' (factAt F i) (o.dst.getD 0)) (fun e _ _ h => h.1) (fun _ _ h => h.2.1) (fun v w'' h => ⟨rfl, v, rfl, h.2.2.1, ?_⟩) h1)
      have := h.2.2.2
      rwa [hget] at this
    · cases e
  · rename_i hw
    rw [if_neg hw] at h1
    obtain ⟨_, _, h2, h3⟩ := h1
    rw [hget] at h3
    exact ⟨rfl, undef, rfl, h2, h3⟩
end Go.Proofs.YtfblbholkhdldaaDoor
namespace Go.Proofs.YtfblbholkhdldaaDoor
open Go.RowKit
set_option linter.unusedVariables false
/-- A reading P of values whose bytes are enc; ok: the values that it reads. -/
structure Codec {α : Type} (P : ByteArray → Int → Int → α × Int × Int) (enc : α → List UInt8) (ok : α → Prop) : Prop where
  good : ∀ {s : ByteArray} {A B : List UInt8} {x : α}, ok x → s.data.toList = A ++ enc x ++ B → P s A.length 0 = (x, ((A.length + (enc x).length : Nat) : Int), 0)
  cut : ∀ {s : ByteArray} {A : List UInt8} {x : α} {k : Nat}, ok x → s.data.toList = A ++ (enc x).take k → k < (enc x).length → (P s A.length 0).2.2 = 2
  stay : ∀ {s : ByteArray} {a e : Int}, e ≠ 0 → (P s a e).2.2 = e
  back : ∀ {s : ByteArray} {i : Nat} {a' : Int} {x : α}, i ≤ s.size → P s i 0 = (x, a', 0) → ok x ∧ ∃ m : Nat, a' = ((i + m : Nat) : Int) ∧ i + m ≤ s.size ∧ enc x = (s.data.toList.drop i).take m
theorem next_cuts {A : List UInt8} {x k : Nat} (hx : x ≤ 72057594037927935) (hk : k < (putL (x : Int)).length) : nextS (A ++ (putL (x : Int)).take k) A.length = (0, 0, 2) := by
  have hn := next_put (A := A) (B := []) hx
  obtain ⟨i, m, y, e1, _, e3, _, _, _, _, hcut⟩ := next_ok hn
  have := hcut (A.length + k) (by omega) (by omega)
  rw [List.append_nil, List.take_length_add_append] at this
  exact this
theorem num_codec (lo hi : Int) (h0 : 0 ≤ lo) (h1 : hi ≤ 72057594037927935) : Codec (fun s a e => numG s a e lo hi) putL (fun n => lo ≤ n ∧ n ≤ hi) := by
  refine ⟨fun {s A B x} hx hs => ?_, fun {s A x k} hx hs hk => ?_, fun {s a e} he => ?_, fun {s i a' x} hi' h => ?_⟩
  · obtain ⟨n, rfl⟩ : ∃ n : Nat, x = n := ⟨x.toNat, by omega⟩
    have := numF_at (v := s) (A := A) (B := B) (x := n) (lo := lo) (hi := hi) hs (by omega) (by omega) (by omega)
    rw [List.length_append] at this
    exact this
  · obtain ⟨n, rfl⟩ : ∃ n : Nat, x = n := ⟨x.toNat, by omega⟩
    have hn := next_cuts (A := A) (x := n) (by omega) hk
    rw [← hs] at hn
    show (numG s A.length 0 lo hi).2.2 = 2
    unfold numG
    rw [if_pos rfl, numF_err hn (by decide)]
  · show (numG s a e lo hi).2.2 = e
    unfold numG
    rw [if_neg he]
  · obtain ⟨_, g⟩ := numG_ok h
    obtain ⟨j, m, e1, e2, e3, e4, e5, e6, _⟩ := numF_ok g
    obtain rfl : j = i := by omega
    exact ⟨⟨e5, e6⟩, m, e2, e3, e4⟩
def textB (t : ByteArray) : List UInt8 := putL (t.size : Int) ++ t.data.toList
theorem text_codec (most : Int) (h1 : most ≤ 1000000) : Codec (fun s a e => textG s a e most) textB (fun t => (t.size : Int) ≤ most) := by
  refine ⟨fun {s A B x} hx hs => ?_, fun {s A x k} hx hs hk => ?_, fun {s a e} he => ?_, fun {s i a' x} hi' h => ?_⟩
  · have := textF_at (v := s) (t := x) (A := A) (B := B) (most := most) hs (by omega) hx
    rw [List.length_append] at this
    exact this
  · show (textG s A.length 0 most).2.2 = 2
    unfold textG textF
    rw [if_pos rfl]
    unfold textB at hs hk
    rcases Nat.lt_or_ge k (putL (x.size : Int)).length with hlt | hge
    · have hn := next_cuts (A := A) (x := x.size) (by omega) hlt
      rw [List.take_append_of_le_length (by omega)] at hs
      rw [← hs] at hn
      rw [hn]
      rfl
    · obtain ⟨j, rfl⟩ : ∃ j, k = (putL (x.size : Int)).length + j := ⟨k - (putL (x.size : Int)).length, by omega⟩
      rw [List.take_length_add_append, ← List.append_assoc] at hs
      rw [List.length_append, str_len] at hk
      have hn := next_put (A := A) (B := x.data.toList.take j) (show x.size ≤ 72057594037927935 by omega)
      rw [← hs] at hn
      have hsz : s.size = A.length + (putL (x.size : Int)).length + j := by
        rw [← str_len, hs, List.length_append, List.length_append, List.length_take, str_len]; omega
      rw [hn]
      simp only [if_pos trivial]
      rw [if_neg (by omega), if_pos (by omega)]
  · show (textG s a e most).2.2 = e
    unfold textG
    rw [if_neg he]
  · obtain ⟨_, g⟩ := textG_ok h
    obtain ⟨j, m, e1, e2, e3, e4, e5⟩ := textF_ok g
    obtain rfl : j = i := by omega
    exact ⟨e5, m, e2, e3, e4⟩
/-- One thing after another; how the second is read may go by the first. -/
def seqP {α β : Type} (P : ByteArray → Int → Int → α × Int × Int) (Q : α → ByteArray → Int → Int → β × Int × Int) (s : ByteArray) (a e : Int) : (α × β) × Int × Int :=
  let x := P s a e
  let y := Q x.1 s x.2.1 x.2.2
  ((x.1, y.1), y.2.1, y.2.2)
theorem Codec.seq {α β : Type} {P : ByteArray → Int → Int → α × Int × Int} {Q : α → ByteArray → Int → Int → β × Int × Int} {encP : α → List UInt8} {encQ : α → β → List UInt8} {okP : α → Prop} {okQ : α → β → Prop}
    (hP : Codec P encP okP) (hQ : ∀ x, okP x → Codec (Q x) (encQ x) (okQ x)) (hS : ∀ x s a e, e ≠ 0 → (Q x s a e).2.2 = e) :
    Codec (seqP P Q) (fun p => encP p.1 ++ encQ p.1 p.2) (fun p => okP p.1 ∧ okQ p.1 p.2) := by
  refine ⟨fun {s A B x} hx hs => ?_, fun {s A x k} hx hs hk => ?_, fun {s a e} he => ?_, fun {s i a' x} hi' h => ?_⟩
  · obtain ⟨x1, x2⟩ := x
    simp only at hx hs
    have g1 := hP.good (s := s) (A := A) (B := encQ x1 x2 ++ B) hx.1 (by rw [hs]; simp)
    have g2 := (hQ x1 hx.1).good (s := s) (A := A ++ encP x1) (B := B) hx.2 (by rw [hs]; simp)
    rw [List.length_append] at g2
    unfold seqP
    simp only [g1, g2]
    rw [List.length_append, Nat.add_assoc]
  · obtain ⟨x1, x2⟩ := x
    simp only at hx hs hk
    unfold seqP
    simp only
    rcases Nat.lt_or_ge k (encP x1).length with hlt | hge
    · rw [List.take_append_of_le_length (by omega)] at hs
      have g1 := hP.cut (s := s) (A := A) (k := k) hx.1 hs hlt
      rw [g1]
      exact hS _ _ _ _ (by decide)
    · obtain ⟨j, rfl⟩ : ∃ j, k = (encP x1).length + j := ⟨k - (encP x1).length, by omega⟩
      rw [List.take_length_add_append, ← List.append_assoc] at hs
      rw [List.length_append] at hk
      have g1 := hP.good (s := s) (A := A) (B := (encQ x1 x2).take j) hx.1 hs
      have g2 := (hQ x1 hx.1).cut (s := s) (A := A ++ encP x1) (k := j) hx.2 hs (by omega)
      rw [List.length_append] at g2
      simp only [g1]
      exact g2
  · show (Q (P s a e).1 s (P s a e).2.1 (P s a e).2.2).2.2 = e
    rw [hP.stay he]
    exact hS _ _ _ _ he
  · unfold seqP at h
    obtain ⟨⟨x1, a1, e1⟩, hx⟩ : ∃ t, P s i 0 = t := ⟨_, rfl⟩
    simp only [hx] at h
    by_cases he : e1 = 0
    · subst he
      obtain ⟨ok1, m, rfl, hm, q1⟩ := hP.back hi' hx
      obtain ⟨⟨x2, a2, e2⟩, hy⟩ : ∃ t, Q x1 s ((i + m : Nat) : Int) 0 = t := ⟨_, rfl⟩
      simp only [hy, Prod.mk.injEq] at h
      obtain ⟨rfl, rfl, rfl⟩ := h
      obtain ⟨ok2, n, rfl, hn, q2⟩ := (hQ x1 ok1).back hm hy
      refine ⟨⟨ok1, ok2⟩, m + n, by omega, by omega, ?_⟩
      simp only [q1, q2]
      rw [List.take_add, List.drop_drop]
    · have := hS x1 s a1 e1 he
      simp only [Prod.mk.injEq] at h
      rw [h.2.2] at this
      exact absurd this.symm he
theorem Codec.map {α β : Type} {P : ByteArray → Int → Int → α × Int × Int} {enc : α → List UInt8} {ok : α → Prop} (h : Codec P enc ok) (f : α → β) (g : β → α) (hgf : ∀ x, ok x → g (f x) = x) :
    Codec (fun s a e => (f (P s a e).1, (P s a e).2.1, (P s a e).2.2)) (fun b => enc (g b)) (fun b => ok (g b) ∧ f (g b) = b) := by
  refine ⟨fun {s A B x} hx hs => ?_, fun {s A x k} hx hs hk => ?_, fun {s a e} he => ?_, fun {s i a' x} hi' hh => ?_⟩
  · simp only [h.good hx.1 hs, hx.2]
  · exact h.cut hx.1 hs hk
  · exact h.stay he
  · obtain ⟨⟨x1, a1, e1⟩, hx⟩ : ∃ t, P s i 0 = t := ⟨_, rfl⟩
    simp only [hx, Prod.mk.injEq] at hh
    obtain ⟨rfl, rfl, rfl⟩ := hh
    obtain ⟨o, m, r1, r2, r3⟩ := h.back hi' hx
    exact ⟨⟨by rw [hgf _ o]; exact o, by rw [hgf _ o]⟩, m, r1, r2, by rw [hgf _ o]; exact r3⟩
/-- Nothing is read. -/
theorem pure_codec {α : Type} (x : α) : Codec (fun _ a e => (x, a, e)) (fun _ => []) (fun y => y = x) := by
  refine ⟨fun {s A B y} hx hs => ?_, fun {s A y k} hx hs hk => ?_, fun {s a e} he => rfl, fun {s i a' y} hi' hh => ?_⟩
  · subst hx; simp
  · simp at hk
  · simp only [Prod.mk.injEq] at hh
    exact ⟨hh.1.symm, 0, by rw [← hh.2.1]; simp, by omega, by simp⟩
/-- What a Decode answers: the value and an error. -/
def decP {α : Type} (P : ByteArray → Int → Int → α × Int × Int) (may : α → Bool) (z : α) (v : ByteArray) : α × Int :=
  let x := P v 0 0
  let f := endF v x.2.1 x.2.2
  if f = 0 then (bif may x.1 then (x.1, 0) else (z, 1)) else (z, f)
section
variable {α : Type} {P : ByteArray → Int → Int → α × Int × Int} {enc : α → List UInt8} {ok : α → Prop} {may : α → Bool} {z : α} {v : ByteArray} {x : α}
theorem Codec.dec_enc (h : Codec P enc ok) (hm : may x = true) (ho : ok x) (hv : v.data.toList = enc x) : decP P may z v = (x, 0) := by
  have g := h.good (s := v) (A := []) (B := []) ho (by simpa using hv)
  have hs : v.size = (enc x).length := by rw [← str_len, hv]
  unfold decP
  rw [show ((([] : List UInt8).length : Nat) : Int) = 0 from rfl] at g
  simp only [g]
  have hE : endF v (((([] : List UInt8).length + (enc x).length : Nat)) : Int) 0 = 0 := by
    unfold endF
    rw [if_pos rfl, if_neg (by rw [hs]; simp)]
  rw [hE, if_pos rfl, hm]
  rfl
theorem Codec.dec_more (h : Codec P enc ok) (ho : ok x) {b : UInt8} {B : List UInt8} (hv : v.data.toList = enc x ++ (b :: B)) : decP P may z v = (z, 3) := by
  have g := h.good (s := v) (A := []) (B := b :: B) ho (by simpa using hv)
  have hs : v.size = (enc x).length + (B.length + 1) := by rw [← str_len, hv]; simp
  unfold decP
  rw [show ((([] : List UInt8).length : Nat) : Int) = 0 from rfl] at g
  simp only [g]
  have hE : endF v (((([] : List UInt8).length + (enc x).length : Nat)) : Int) 0 = 3 := by
    unfold endF
    rw [if_pos rfl, if_pos (by rw [hs]; simp; omega)]
  rw [hE, if_neg (by decide)]
theorem Codec.dec_cut (h : Codec P enc ok) (ho : ok x) {k : Nat} (hv : v.data.toList = (enc x).take k) (hk : k < (enc x).length) : decP P may z v = (z, 2) := by
  have g := h.cut (s := v) (A := []) ho (by simpa using hv) hk
  rw [show ((([] : List UInt8).length : Nat) : Int) = 0 from rfl] at g
  have hE : endF v (P v 0 0).2.1 (P v 0 0).2.2 = 2 := by
    rw [g]; unfold endF; rw [if_neg (by decide)]
  unfold decP
  simp only [hE]
  rw [if_neg (by decide)]
theorem Codec.dec_back (h : Codec P enc ok) (hd : (decP P may z v).2 = 0) : may (decP P may z v).1 = true ∧ ok (decP P may z v).1 ∧ enc (decP P may z v).1 = v.data.toList := by
  obtain ⟨⟨x1, a1, e1⟩, hx⟩ : ∃ t, P v 0 0 = t := ⟨_, rfl⟩
  have hD : decP P may z v = if endF v a1 e1 = 0 then (bif may x1 then (x1, 0) else (z, 1)) else (z, endF v a1 e1) := by
    unfold decP
    simp only [hx]
  rw [hD] at hd ⊢
  by_cases hE : endF v a1 e1 = 0
  · rw [if_pos hE] at hd ⊢
    cases hm : may x1
    · rw [hm] at hd; cases hd
    · simp only [cond_true]
      obtain ⟨rfl, hend⟩ := endF_ok hE
      obtain ⟨o, m, rfl, r2, r3⟩ := h.back (i := 0) (Nat.zero_le _) (by exact hx)
      refine ⟨hm, o, ?_⟩
      rw [r3, List.drop_zero, List.take_of_length_le (by rw [str_len]; omega)]
  · rw [if_neg hE] at hd; exact absurd hd hE
theorem decP_err (hd : (decP P may z v).2 ≠ 0) : (decP P may z v).1 = z := by
  obtain ⟨⟨x1, a1, e1⟩, hx⟩ : ∃ t, P v 0 0 = t := ⟨_, rfl⟩
  have hD : decP P may z v = if endF v a1 e1 = 0 then (bif may x1 then (x1, 0) else (z, 1)) else (z, endF v a1 e1) := by
    unfold decP
    simp only [hx]
  rw [hD] at hd ⊢
  split
  · rename_i hE
    rw [if_pos hE] at hd
    cases hm : may x1
    · rfl
    · rw [hm] at hd; exact absurd rfl hd
  · rfl
end
end Go.Proofs.YtfblbholkhdldaaDoor
namespace Go.Proofs.YtfblbholkhdldaaDoor
open Go.RowKit
attribute [local go_sem] strV
def reachB (a n : Int) : Bool := decide (0 < a) && decide (a ≤ n)
def overB (th ta h t : Int) : Bool := reachB th h || reachB ta t
set_option maxRecDepth 100000 in
set_option maxHeartbeats 400000 in
theorem reached_any (a n : Int) (w : World) :
    Calls Tryd.prog 75 #[.int .i64 a, .int .i64 n] w fun e w' => e = .returned (.bool (reachB a n)) ∧ w' = w := by
  cases h1 : decide (0 < a)
  · have HR : Hid (reachB a n = false) := Lib.hid (by unfold reachB; rw [h1]; rfl)
    go_enter Tryd.func75, Tryd.ntmps75
    go_wp2
    go_ret
    exact ⟨by rw [HR.out]; first | done | rfl, by first | rfl | trivial⟩
  · cases h2 : decide (a ≤ n)
    all_goals
      have HR := Lib.hid (show reachB a n = _ from by unfold reachB; rw [h1, h2])
      go_enter Tryd.func75, Tryd.ntmps75
      go_wp2
      go_ret
      exact ⟨by rw [HR.out]; first | done | rfl, by first | rfl | trivial⟩
set_option maxRecDepth 100000 in
set_option maxHeartbeats 1600000 in
theorem over_any (sp : ByteArray) (sc : Int) (dp : ByteArray) (dc seq : Int) (dat : ByteArray) (th ta : Int) (h t : Int) (w : World) :
    Calls Tryd.prog 38 #[.agg #[.string sp, .int .i64 sc, .string dp, .int .i64 dc, .int .i64 seq, .string dat, .int .i64 th, .int .i64 ta], .int .i64 h, .int .i64 t] w fun e w' => e = .returned (.bool (overB th ta h t)) ∧ Below w.heap.size w w' := by
  cases h1 : reachB th h
  · cases h2 : reachB ta t
    all_goals
      have HR := Lib.hid (show overB th ta h t = _ from by unfold overB; rw [h1, h2])
      go_enter Tryd.func38, Tryd.ntmps38
      go_wp2_with (go_at_call 75; refine (reached_any _ _ _).mono ?_; rintro e w1 ⟨rfl, hw1⟩; obtain rfl : _ = w1 := hw1.symm; first | rw [h1] | rw [h2])
      go_ret
      exact ⟨by rw [HR.out]; first | done | rfl, by repeat (first | assumption | exact Below.refl _ _ | refine bch ?_ (by assumption) | refine Below.alloc ?_ (by simp) _)⟩
  · have HR := Lib.hid (show overB th ta h t = true from by unfold overB; rw [h1]; rfl)
    go_enter Tryd.func38, Tryd.ntmps38
    go_wp2_with (go_at_call 75; refine (reached_any _ _ _).mono ?_; rintro e w1 ⟨rfl, hw1⟩; obtain rfl : _ = w1 := hw1.symm; rw [h1])
    go_ret
    exact ⟨by rw [HR.out]; first | done | rfl, by repeat (first | assumption | exact Below.refl _ _ | refine bch ?_ (by assumption) | refine Below.alloc ?_ (by simp) _)⟩
def lightK (sp dp dat : ByteArray) : Bool := decide (sp.size ≤ 60) && decide (dp.size ≤ 60) && decide (dat.size ≤ 600)
set_option maxRecDepth 100000 in
set_option maxHeartbeats 1600000 in
theorem light_any (sp : ByteArray) (sc : Int) (dp : ByteArray) (dc seq : Int) (dat : ByteArray) (th ta : Int) (w : World) :
    Calls Tryd.prog 29 #[.agg #[.string sp, .int .i64 sc, .string dp, .int .i64 dc, .int .i64 seq, .string dat, .int .i64 th, .int .i64 ta]] w fun e w' => e = .returned (.bool (lightK sp dp dat)) ∧ Below w.heap.size w w' := by
  cases h1 : decide (sp.size ≤ 60) <;> cases h2 : decide (dp.size ≤ 60) <;> cases h3 : decide (dat.size ≤ 600)
  all_goals
    have HR := Lib.hid (show lightK sp dp dat = _ from by unfold lightK; rw [h1, h2, h3])
    have f1 := h1; have f2 := h2; have f3 := h3
    rw [show decide (sp.size ≤ 60) = decide ((sp.size : Int) ≤ 60) by rw [decide_eq_decide]; omega] at f1
    rw [show decide (dp.size ≤ 60) = decide ((dp.size : Int) ≤ 60) by rw [decide_eq_decide]; omega] at f2
    rw [show decide (dat.size ≤ 600) = decide ((dat.size : Int) ≤ 600) by rw [decide_eq_decide]; omega] at f3
    go_enter Tryd.func29, Tryd.ntmps29
    go_wp2
    go_ret
    exact ⟨by rw [HR.out]; first | done | rfl, by repeat (first | assumption | exact Below.refl _ _ | refine bch ?_ (by assumption) | refine Below.alloc ?_ (by simp) _)⟩
set_option maxRecDepth 100000 in
set_option maxHeartbeats 1600000 in
theorem same_self (sp : ByteArray) (sc : Int) (dp : ByteArray) (dc seq : Int) (dat : ByteArray) (th ta : Int) (w : World) :
    Calls Tryd.prog 40 #[.agg #[.string sp, .int .i64 sc, .string dp, .int .i64 dc, .int .i64 seq, .string dat, .int .i64 th, .int .i64 ta], .agg #[.string sp, .int .i64 sc, .string dp, .int .i64 dc, .int .i64 seq, .string dat, .int .i64 th, .int .i64 ta]] w fun e w' => e = .returned (.bool true) ∧ Below w.heap.size w w' := by
  go_enter Tryd.func40, Tryd.ntmps40
  go_wp2
  go_ret
  exact ⟨rfl, by repeat (first | assumption | exact Below.refl _ _ | refine bch ?_ (by assumption) | refine Below.alloc ?_ (by simp) _)⟩
set_option maxRecDepth 100000 in
set_option maxHeartbeats 1600000 in
theorem first5_any (w : World) :
    Calls Tryd.prog 28 #[] w fun e w' => e = .returned (.bool true) ∧ Below w.heap.size w w' := by
  have m0 : mayK ⟨#[116]⟩ 1 ⟨#[116]⟩ 1 1 ⟨#[]⟩ 5 0 = true := by decide +kernel
  have o0 : overB 5 0 5 0 = true := by decide +kernel
  have o1 : overB 5 0 4 9 = false := by decide +kernel
  have o2 := o0; have o3 := o0
  go_enter Tryd.func28, Tryd.ntmps28
  go_wp2_with (first | (go_at_call 38; refine (over_any _ _ _ _ _ _ _ _ _ _ _).mono ?_; rintro e w1 ⟨rfl, hb⟩; (first | rw [o0] | rw [o1] | rw [o2] | rw [o3]); obtain ⟨hc1, hf1⟩ := bcell hb; have hz1 : w.heap.size < w1.heap.size := (by have := hb.size; (try simp at this); omega); have hz2 : w.heap.size + 1 < w1.heap.size := (by have := hb.size; (try simp at this); omega)) | (go_at_call 37; refine (mayPk_any _ _ _ _ _ _ _ _ _ (by unfold maxLen; decide) (by unfold maxLen; decide)).mono ?_; rintro e w1 ⟨rfl, hb⟩; rw [m0]; obtain ⟨hc1, hf1⟩ := bcell hb; have hz1 : w.heap.size < w1.heap.size := (by have := hb.size; (try simp at this); omega); have hz2 : w.heap.size + 1 < w1.heap.size := (by have := hb.size; (try simp at this); omega)) | (go_at_call 40; refine (same_self _ _ _ _ _ _ _ _ _).mono ?_; rintro e w1 ⟨rfl, hb⟩))
  go_ret
  exact ⟨rfl, by repeat (first | assumption | exact Below.refl _ _ | refine bch ?_ (by assumption) | refine Below.alloc ?_ (by simp) _)⟩
end Go.Proofs.YtfblbholkhdldaaDoor
namespace Go.Proofs.YtfblbholkhdldaaDoor
open Go.RowKit

/-- The last n bytes of v, the most significant one first. -/
def be : Nat → Nat → List UInt8
  | 0, _ => []
  | n + 1, v => be n (v / 256) ++ [UInt8.ofNat (v % 256)]
theorem be_length (n v : Nat) : (be n v).length = n := by
  induction n generalizing v with
  | zero => rfl
  | succ n ih => simp [be, ih]
theorem be_cons (n v : Nat) : be (n + 1) v = UInt8.ofNat (v / 256 ^ n % 256) :: be n v := by
  induction n generalizing v with
  | zero => simp [be]
  | succ n ih =>
    rw [be, ih (v / 256), be]
    simp only [List.cons_append, Nat.div_div_eq_div_mul, Nat.pow_succ, Nat.mul_comm]
theorem be_take (n k v : Nat) (h : k < n) : (be n v).take (k + 1) = (be n v).take k ++ [UInt8.ofNat (v / 256 ^ (n - 1 - k) % 256)] := by
  induction n generalizing k with
  | zero => omega
  | succ n ih =>
    rw [be_cons]
    cases k with
    | zero => simp
    | succ k =>
      rw [List.take_succ_cons, List.take_succ_cons, ih k (by omega), show n + 1 - 1 - (k + 1) = n - 1 - k by omega]
      rfl
def eightL (v : Int) : List UInt8 := if encB v then be 8 v.toNat else []

set_option maxRecDepth 100000 in
set_option maxHeartbeats 800000 in
theorem eight_any (v : Int) (w : World) :
    Calls Tryd.prog 63 #[.int .i64 v] w fun e w' => e = .returned (strV (eightL v)) ∧ Below w.heap.size w w' := by
  by_cases hv : encB v = true
  · obtain ⟨x, rfl, hx⟩ := encB_nat hv
    have hp : eightL (x : Int) = be 8 x := by unfold eightL; rw [if_pos hv]; rfl
    have HP := Lib.hid hp; clear hp
    go_enter Tryd.func63, Tryd.ntmps63
    go_wp2_with (go_at_call 86; refine (encodable_any _ _).mono ?_; rintro e w' ⟨rfl, rfl⟩)
    have hz0 : World.ownsRow (w.alloc (.cells #[.int .u8 0, .int .u8 0, .int .u8 0, .int .u8 0, .int .u8 0, .int .u8 0, .int .u8 0, .int .u8 0] 112)) w.heap.size 112 1 (.slice (some ⟨w.heap.size, 0, none⟩) 8 8) 8 (((be 8 x).take 0).map bv ++ List.replicate (8 - 0) (.int .u8 0)) :=
      World.ownsRow_lit w _ 8 (Nat.le_refl _) (by unfold maxLen; omega) rfl
    have hb0 := (Below.refl w.heap.size w).alloc (Nat.le_refl _) (.cells #[.int .u8 0, .int .u8 0, .int .u8 0, .int .u8 0, .int .u8 0, .int .u8 0, .int .u8 0, .int .u8 0] 112)
    have Hv := Lib.hid hv; clear hv
    go_loopw [8] (fun i wr => ∃ k : Nat, k ≤ 8 ∧ wr.ownsRow w.heap.size 112 1 (.slice (some ⟨w.heap.size, 0, none⟩) 8 8) 8 (((be 8 x).take k).map bv ++ List.replicate (8 - k) (.int .u8 0)) ∧ Below w.heap.size w wr ∧ i = .int .i64 k) (fun i _ => 8 - (intOf i).toNat)
    case atStart => exact ⟨0, by omega, hz0, hb0, rfl⟩
    case round =>
      clear hz0 hb0
      obtain ⟨k, hk, hown, hbel, rfl⟩ := hrel
      have hsz := hbel.size
      by_cases hlt : k < 8
      · obtain ⟨c0, hc0⟩ : ∃ c0, wr.cell? ⟨w.heap.size, k, none⟩ = some c0 := by
          refine ⟨_, (hown.cellAt k (by omega)).trans (List.getElem?_eq_getElem (by simp [be_length]; omega))⟩
        have hfr := hown.frozenAt k
        have e : Value.int .u8 ((x : Int) / 2 ^ (8 * (7 - k)) % 256) = bv (UInt8.ofNat (x / 256 ^ (7 - k) % 256)) := by
          rw [bv_ofNat (by omega), show (256 : Nat) = 2 ^ 8 from rfl, ← Nat.pow_mul]
          push_cast; rfl
        have HST : Hid ((wr.setCell ⟨w.heap.size, k, none⟩ (.int .u8 ((x : Int) / 2 ^ (8 * (7 - k)) % 256))).ownsRow w.heap.size 112 1 (.slice (some ⟨w.heap.size, 0, none⟩) 8 8) 8 (((be 8 x).take (k + 1)).map bv ++ List.replicate (8 - (k + 1)) (.int .u8 0))) := Lib.hid (by
          have h := (hown.stored k (.int .u8 ((x : Int) / 2 ^ (8 * (7 - k)) % 256))).1
          rw [List.set_append_right _ _ (by simp [be_length]; omega)] at h
          simp only [List.length_map, List.length_take, be_length] at h
          rw [show k - min k 8 = 0 by omega, show 8 - k = (8 - (k + 1)) + 1 by omega, List.replicate_succ, List.set_cons_zero] at h
          rw [be_take 8 k x hlt, List.map_append, List.append_assoc]
          rw [e] at h ⊢
          exact h)
        have HB := Lib.hid (hbel.setCell (p := ⟨w.heap.size, k, none⟩) (Nat.le_refl _) (.int .u8 ((x : Int) / 2 ^ (8 * (7 - k)) % 256)))
        clear e
        go_wp2
        go_roundw
        case rel => exact ⟨k + 1, by omega, HST.out, HB.out, by go_num⟩
        case measure => simp [intOf]; omega
      · have hxs : ((be 8 x).take k).map bv ++ List.replicate (8 - k) (Value.int .u8 0) = (be 8 x).map bv := by
          rw [List.take_of_length_le (by rw [be_length]; omega), show 8 - k = 0 by omega]; simp
        rw [hxs] at hown
        have hcv := conv_own (P := Tryd.prog) hown 72 9 Tryd.underlying72 Tryd.underlying5 Tryd.underlying9
        clear hxs
        go_wp2
        go_ret
        exact ⟨by rw [HP.out]; rfl, hbel⟩
  · have hp : eightL v = [] := by unfold eightL; rw [if_neg hv]
    have HP := Lib.hid hp; have hv' : encB v = false := by simpa using hv
    clear hp hv
    go_enter Tryd.func63, Tryd.ntmps63
    go_wp2_with (go_at_call 86; refine (encodable_any _ _).mono ?_; rintro e w' ⟨rfl, rfl⟩)
    go_ret
    exact ⟨by rw [HP.out]; rfl, Below.refl _ _⟩

set_option maxRecDepth 100000 in
set_option maxHeartbeats 800000 in
theorem refEight_any (v : Int) (w : World) :
    Calls Tryd.prog 32 #[.int .i64 v] w fun e w' => e = .returned (strV (eightL v)) ∧ Below w.heap.size w w' := by
  by_cases hv : encB v = true
  · obtain ⟨x, rfl, hx⟩ := encB_nat hv
    have hp : eightL (x : Int) = be 8 x := by unfold eightL; rw [if_pos hv]; rfl
    have HP := Lib.hid hp; clear hp hv
    have hmk : ∀ w, (Instr.makeSlice 72 (.int .i64 8) (.int .i64 8)).run Tryd.prog w = .ok (.slice (some ⟨w.heap.size, 0, none⟩) 8 8) (w.alloc (.cells #[.int .u8 0, .int .u8 0, .int .u8 0, .int .u8 0, .int .u8 0, .int .u8 0, .int .u8 0, .int .u8 0] 5)) := fun _ => by kernel_rfl
    have hz0 : World.ownsRow (w.alloc (.cells #[.int .u8 0, .int .u8 0, .int .u8 0, .int .u8 0, .int .u8 0, .int .u8 0, .int .u8 0, .int .u8 0] 5)) w.heap.size 5 1 (.slice (some ⟨w.heap.size, 0, none⟩) 8 8) 8 (List.replicate (8 - 0) (.int .u8 0) ++ (be 0 x).map bv) :=
      World.ownsRow_lit w _ 8 (Nat.le_refl _) (by unfold maxLen; omega) rfl
    have hb0 := (Below.refl w.heap.size w).alloc (Nat.le_refl _) (.cells #[.int .u8 0, .int .u8 0, .int .u8 0, .int .u8 0, .int .u8 0, .int .u8 0, .int .u8 0, .int .u8 0] 5)
    go_enter Tryd.func32, Tryd.ntmps32
    go_wp2
    clear hmk
    go_loopw [0, 4] (fun a i wr => ∃ k y : Nat, k ≤ 8 ∧ y ≤ x ∧ Hid (y = x / 256 ^ k) ∧ wr.ownsRow w.heap.size 5 1 (.slice (some ⟨w.heap.size, 0, none⟩) 8 8) 8 (List.replicate (8 - k) (.int .u8 0) ++ (be k x).map bv) ∧ Below w.heap.size w wr ∧ a = .int .i64 y ∧ i = .int .i64 (7 - (k : Int))) (fun _ i _ => (intOf i + 1).toNat)
    case atStart => exact ⟨0, x, by omega, by omega, Lib.hid (by simp), hz0, hb0, rfl, rfl⟩
    case round =>
      clear hz0 hb0
      obtain ⟨k, y, hk, hyx, HY, hown, hbel, rfl, rfl⟩ := hrel
      have hsz := hbel.size
      by_cases hlt : k < 8
      · obtain ⟨c0, hc0⟩ : ∃ c0, wr.cell? ⟨w.heap.size, 7 - k, none⟩ = some c0 := by
          refine ⟨_, (hown.cellAt (7 - k) (by omega)).trans (List.getElem?_eq_getElem (by simp [be_length]; omega))⟩
        have hfr := hown.frozenAt (7 - k)
        have e : Value.int .u8 ((y : Int) % 256) = bv (UInt8.ofNat (x / 256 ^ k % 256)) := by
          rw [bv_ofNat (by omega), ← HY.out]; rfl
        have HST : Hid ((wr.setCell ⟨w.heap.size, 7 - k, none⟩ (.int .u8 ((y : Int) % 256))).ownsRow w.heap.size 5 1 (.slice (some ⟨w.heap.size, 0, none⟩) 8 8) 8 (List.replicate (8 - (k + 1)) (.int .u8 0) ++ (be (k + 1) x).map bv)) := Lib.hid (by
          have h := (hown.stored (7 - k) (.int .u8 ((y : Int) % 256))).1
          rw [show 8 - k = (8 - (k + 1)) + 1 by omega, List.replicate_succ', List.append_assoc, List.set_append_right _ _ (by rw [List.length_replicate]; omega)] at h
          simp only [List.length_replicate] at h
          rw [show 7 - k - (8 - (k + 1)) = 0 by omega, List.singleton_append, List.set_cons_zero, e] at h
          rw [be_cons, List.map_cons, e]
          exact h)
        have HB := Lib.hid (hbel.setCell (p := ⟨w.heap.size, 7 - k, none⟩) (Nat.le_refl _) (.int .u8 ((y : Int) % 256)))
        clear e
        go_wp2
        go_roundw
        case rel => exact ⟨k + 1, y / 256, by omega, by omega, Lib.hid (by rw [HY.out, Nat.div_div_eq_div_mul]; rfl), HST.out, HB.out, by go_num, by go_num⟩
        case measure => simp [intOf]; omega
      · have hxs : List.replicate (8 - k) (Value.int .u8 0) ++ (be k x).map bv = (be 8 x).map bv := by
          rw [show k = 8 by omega]; simp
        rw [hxs] at hown
        have hcv := conv_own (P := Tryd.prog) hown 72 9 Tryd.underlying72 Tryd.underlying5 Tryd.underlying9
        clear hxs
        go_wp2
        go_ret
        exact ⟨by rw [HP.out]; rfl, hbel⟩
  · have hp : eightL v = [] := by unfold eightL; rw [if_neg hv]
    have H0 : v < 0 ∨ 72057594037927935 < v := by simp [encB] at hv; omega
    have HP := Lib.hid hp
    clear hp hv
    rcases H0 with h | h
    all_goals
      go_enter Tryd.func32, Tryd.ntmps32
      go_wp2
      go_ret
      exact ⟨by rw [HP.out]; rfl, Below.refl _ _⟩
end Go.Proofs.YtfblbholkhdldaaDoor
namespace Go.Proofs.YtfblbholkhdldaaDoor
open Go.RowKit Go.ChangeShapes Go.WideShapes Go.Deep

theorem Tryd.cellsEn : Tryd.prog.cellsOf 43 = 2 := by kernel_rfl
theorem Tryd.cellsInt : Tryd.prog.cellsOf 3 = 1 := by kernel_rfl
theorem Tryd.cellsStr : Tryd.prog.cellsOf 9 = 1 := by kernel_rfl

section
variable {H : Type} {enc : TypeId × Value → H} {w : World} {base : Nat} {spare : Nat → Bool} {held : Bool}
theorem int_bd {z : Int} (h : (Lit.int .i64 z).wf = true) : -9223372036854775808 ≤ z ∧ z ≤ 9223372036854775807 := by
  simpa [Lit.wf, IntKind.min, IntKind.max, IntKind.signed, IntKind.bits] using h
theorem end_open {r : List Value} (hl : r.length = Tryd.prog.cellsOf 43) (h : Reads enc Tryd.prog w base spare held 43 r) :
    ∃ (p : ByteArray) (c : Int), r = [.string p, .int .i64 c] ∧ p.size ≤ maxLen ∧ -9223372036854775808 ≤ c ∧ c ≤ 9223372036854775807 := by
  rw [Tryd.cellsEn] at hl
  match r, hl with
  | [c0, c1], _ =>
    have h0 := h.field Tryd.underlying43 0 _ rfl
    have h1 := h.field Tryd.underlying43 1 _ rfl
    simp [Tryd.cellsInt, Tryd.cellsStr] at h0 h1
    obtain ⟨z0, e0, s0⟩ := h0.string Tryd.underlying9
    obtain ⟨z1, e1, b1⟩ := h1.int Tryd.underlying3
    simp at e0 e1
    subst e0 e1
    exact ⟨z0, z1, rfl, s0, (int_bd b1).1, (int_bd b1).2⟩
end
end Go.Proofs.YtfblbholkhdldaaDoor
namespace Go.Proofs.YtfblbholkhdldaaDoor
open Go.RowKit Go.ChangeShapes Go.WideShapes Go.Deep

theorem Tryd.cellsPkt : Tryd.prog.cellsOf 45 = 8 := by kernel_rfl
section
variable {H : Type} {enc : TypeId × Value → H} {w : World} {base : Nat} {spare : Nat → Bool} {held : Bool}
theorem pkt_open {r : List Value} (hl : r.length = Tryd.prog.cellsOf 45) (h : Reads enc Tryd.prog w base spare held 45 r) :
    ∃ (sp : ByteArray) (sc : Int) (dp : ByteArray) (dc seq : Int) (dat : ByteArray) (th ta : Int), r = [.string sp, .int .i64 sc, .string dp, .int .i64 dc, .int .i64 seq, .string dat, .int .i64 th, .int .i64 ta] ∧ sp.size ≤ maxLen ∧ dp.size ≤ maxLen ∧ dat.size ≤ maxLen := by
  rw [Tryd.cellsPkt] at hl
  match r, hl with
  | [c0, c1, c2, c3, c4, c5, c6, c7], _ =>
    have h0 := h.field Tryd.underlying45 0 _ rfl
    have h1 := h.field Tryd.underlying45 1 _ rfl
    have h2 := h.field Tryd.underlying45 2 _ rfl
    have h3 := h.field Tryd.underlying45 3 _ rfl
    have h4 := h.field Tryd.underlying45 4 _ rfl
    have h5 := h.field Tryd.underlying45 5 _ rfl
    simp [Tryd.cellsInt, Tryd.cellsStr, Tryd.cellsEn] at h0 h1 h2 h3 h4 h5
    obtain ⟨z0, z1, e0, s0, _⟩ := end_open (by rw [Tryd.cellsEn]; rfl) h0
    obtain ⟨z2, z3, e1, s1, _⟩ := end_open (by rw [Tryd.cellsEn]; rfl) h1
    obtain ⟨z4, e2, _⟩ := h2.int Tryd.underlying3
    obtain ⟨z5, e3, s3⟩ := h3.string Tryd.underlying9
    obtain ⟨z6, e4, _⟩ := h4.int Tryd.underlying3
    obtain ⟨z7, e5, _⟩ := h5.int Tryd.underlying3
    simp at e0 e1 e2 e3 e4 e5
    obtain ⟨rfl, rfl⟩ := e0
    obtain ⟨rfl, rfl⟩ := e1
    subst e2 e3 e4 e5
    exact ⟨z0, z1, z2, z3, z4, z5, z6, z7, rfl, s0, s1, s3⟩
end
end Go.Proofs.YtfblbholkhdldaaDoor
namespace Go.Proofs.YtfblbholkhdldaaDoor
open Go.RowKit
theorem sw_of {W : World} (hL : laidMetH Tryd.prog [("lighterman/sha.start", Rows.laid_lighterman_sha_start), ("lighterman/sha.rounds", Rows.laid_lighterman_sha_rounds)] W) : SW W := by
  rw [MakeChecks.laidMetH_plain _ _ _ (by kernel_rfl)] at hL
  exact ⟨Lib.tabIs_of_head (g := 0) (t := (Tryd.prog.globals[0]?).elim 0 (·.type)) (e := 75) (n := 8) (by kernel_rfl) (by kernel_rfl) (by kernel_rfl) (by kernel_rfl) (by kernel_rfl) (by kernel_rfl) hL,
    Lib.tabIs_of_head (g := 1) (t := (Tryd.prog.globals[1]?).elim 0 (·.type)) (e := 75) (n := 64) (by kernel_rfl) (by kernel_rfl) (by kernel_rfl) (by kernel_rfl) (by kernel_rfl) (by kernel_rfl) hL.tail⟩
end Go.Proofs.YtfblbholkhdldaaDoor
namespace Go.Proofs.YtfblbholkhdldaaDoor
open Go.RowKit
attribute [local go_sem] strV
set_option linter.unusedVariables false
theorem Pk.mayK_bounds {sp : ByteArray} {sc : Int} {dp : ByteArray} {dc sq : Int} {da : ByteArray} {th ta : Int} (h : mayK sp sc dp dc sq da th ta = true) :
    sp.size ≤ 12 ∧ dp.size ≤ 12 ∧ da.size ≤ 200 ∧ 0 ≤ sc ∧ sc ≤ 999 ∧ 0 ≤ dc ∧ dc ≤ 999 ∧ 1 ≤ sq ∧ sq ≤ 1099511627776 ∧ 0 ≤ th ∧ th ≤ 1099511627776 ∧ 0 ≤ ta ∧ ta ≤ 1099511627776 := by
  unfold mayK at h
  simp only [Bool.and_eq_true, decide_eq_true_eq] at h
  obtain ⟨⟨⟨⟨⟨⟨⟨⟨h1, h2⟩, h3⟩, h4⟩, h5⟩, h6⟩, h7⟩, h8⟩, h9⟩ := h
  have a := mayE_bounds h1
  have b := mayE_bounds h2
  omega
def nP (lo hi : Int) (s : ByteArray) (a e : Int) : Int × Int × Int := numG s a e lo hi
def tP (most : Int) (s : ByteArray) (a e : Int) : ByteArray × Int × Int := textG s a e most
theorem nP_codec {lo hi : Int} (h0 : 0 ≤ lo) (h1 : hi ≤ 72057594037927935) : Codec (nP lo hi) putL (fun n => lo ≤ n ∧ n ≤ hi) := num_codec lo hi h0 h1
theorem tP_codec {most : Int} (h1 : most ≤ 1000000) : Codec (tP most) textB (fun t => (t.size : Int) ≤ most) := text_codec most h1
def mapP {α β : Type} (f : α → β) (P : ByteArray → Int → Int → α × Int × Int) (s : ByteArray) (a e : Int) : β × Int × Int := (f (P s a e).1, (P s a e).2.1, (P s a e).2.2)
def endP : ByteArray → Int → Int → (ByteArray × Int) × Int × Int := seqP (tP 12) (fun _ => nP 0 999)
def endOk (p : ByteArray × Int) : Prop := (p.1.size : Int) ≤ 12 ∧ 0 ≤ p.2 ∧ p.2 ≤ 999
theorem end_codec : Codec endP (fun p => textB p.1 ++ putL p.2) endOk :=
  (tP_codec (by decide)).seq (fun _ _ => nP_codec (by decide) (by decide)) (fun _ _ _ _ he => (nP_codec (by decide) (by decide)).stay he)
abbrev PkT := (ByteArray × Int) × (ByteArray × Int) × Int × ByteArray × Int × Int
def pkP : ByteArray → Int → Int → PkT × Int × Int :=
  seqP endP fun _ => seqP endP fun _ => seqP (nP 1 1099511627776) fun _ => seqP (tP 200) fun _ => seqP (nP 0 1099511627776) fun _ => nP 0 1099511627776
def pkB (p : PkT) : List UInt8 := (textB p.1.1 ++ putL p.1.2) ++ ((textB p.2.1.1 ++ putL p.2.1.2) ++ (putL p.2.2.1 ++ (textB p.2.2.2.1 ++ (putL p.2.2.2.2.1 ++ putL p.2.2.2.2.2))))
def pkOk (p : PkT) : Prop := endOk p.1 ∧ endOk p.2.1 ∧ (1 ≤ p.2.2.1 ∧ p.2.2.1 ≤ 1099511627776) ∧ (p.2.2.2.1.size : Int) ≤ 200 ∧ (0 ≤ p.2.2.2.2.1 ∧ p.2.2.2.2.1 ≤ 1099511627776) ∧ 0 ≤ p.2.2.2.2.2 ∧ p.2.2.2.2.2 ≤ 1099511627776
theorem pk_codec : Codec pkP pkB pkOk := by
  have c6 := nP_codec (lo := 0) (hi := 1099511627776) (by decide) (by decide)
  have c5 := c6.seq (fun _ _ => c6) (fun _ _ _ _ he => c6.stay he)
  have c4 := (tP_codec (most := 200) (by decide)).seq (fun _ _ => c5) (fun _ _ _ _ he => c5.stay he)
  have c3 := (nP_codec (lo := 1) (hi := 1099511627776) (by decide) (by decide)).seq (fun _ _ => c4) (fun _ _ _ _ he => c4.stay he)
  have c2 := end_codec.seq (fun _ _ => c3) (fun _ _ _ _ he => c3.stay he)
  exact end_codec.seq (fun _ _ => c2) (fun _ _ _ _ he => c2.stay he)
theorem pkB_eq (p : PkT) : pkB p = pkBy p.1.1 p.1.2 p.2.1.1 p.2.1.2 p.2.2.1 p.2.2.2.1 p.2.2.2.2.1 p.2.2.2.2.2 := by
  unfold pkB pkBy endBy textB
  simp only [List.append_assoc]
theorem pkP_eq (s : ByteArray) (a e : Int) : pkP s a e = ((((pkG s a e).sp, (pkG s a e).sc), ((pkG s a e).dp, (pkG s a e).dc), (pkG s a e).sq, (pkG s a e).da, (pkG s a e).th, (pkG s a e).ta), (pkG s a e).a, (pkG s a e).e) := rfl
theorem endP_eq (s : ByteArray) (a e : Int) : endP s a e = (((endG s a e).1, (endG s a e).2.1), (endG s a e).2.2.1, (endG s a e).2.2.2) := rfl
def mayT (p : PkT) : Bool := mayK p.1.1 p.1.2 p.2.1.1 p.2.1.2 p.2.2.1 p.2.2.2.1 p.2.2.2.2.1 p.2.2.2.2.2
def PkT.zero : PkT := ((⟨#[]⟩, 0), (⟨#[]⟩, 0), 0, ⟨#[]⟩, 0, 0)
def PkT.row (p : PkT) : Array Value := #[.string p.1.1, .int .i64 p.1.2, .string p.2.1.1, .int .i64 p.2.1.2, .int .i64 p.2.2.1, .string p.2.2.2.1, .int .i64 p.2.2.2.2.1, .int .i64 p.2.2.2.2.2]
def decPk (v : ByteArray) : PkT × Int := decP pkP mayT PkT.zero v
def encPk (p : PkT) : Value := bif mayT p then .tuple #[.string ⟨(pkB p).toArray⟩, .int .i64 0] else .tuple #[.string ⟨#[]⟩, .int .i64 1]
theorem pkOk_of {p : PkT} (h : mayT p = true) : pkOk p := by
  have b := Pk.mayK_bounds h
  exact ⟨⟨by omega, by omega, by omega⟩, ⟨by omega, by omega, by omega⟩, ⟨by omega, by omega⟩, by omega, ⟨by omega, by omega⟩, by omega, by omega⟩
theorem decPk_enc {x : PkT} (hm : mayT x = true) {v : ByteArray} (hv : v.data.toList = pkB x) : decPk v = (x, 0) := pk_codec.dec_enc hm (pkOk_of hm) hv
theorem decPk_more {x : PkT} (hm : mayT x = true) {v : ByteArray} {b : UInt8} {B : List UInt8} (hv : v.data.toList = pkB x ++ (b :: B)) : decPk v = (PkT.zero, 3) := pk_codec.dec_more (pkOk_of hm) hv
theorem decPk_back {v : ByteArray} (h : (decPk v).2 = 0) : mayT (decPk v).1 = true ∧ pkB (decPk v).1 = v.data.toList := by
  obtain ⟨h1, _, h2⟩ := pk_codec.dec_back h
  exact ⟨h1, h2⟩
theorem pkB_len {x : PkT} (hm : mayT x = true) : (pkB x).length ≤ 288 := by
  rw [pkB_eq]
  have b := Pk.mayK_bounds hm
  exact pkBy_len _ _ _ _ _ _ _ _ (by omega) (by omega) (by omega)
set_option maxRecDepth 100000 in
set_option maxHeartbeats 6400000 in
theorem encodePk_any (sp : ByteArray) (sc : Int) (dp : ByteArray) (dc sq : Int) (da : ByteArray) (th ta : Int) (w : World) (h1 : sp.size ≤ maxLen) (h2 : dp.size ≤ maxLen) :
    Calls Tryd.prog 33 #[.agg #[.string sp, .int .i64 sc, .string dp, .int .i64 dc, .int .i64 sq, .string da, .int .i64 th, .int .i64 ta]] w fun e w' => e = .returned (encPk ((sp, sc), (dp, dc), sq, da, th, ta)) ∧ Below w.heap.size w w' := by
  have CM := fun W => mayPk_any sp sc dp dc sq da th ta W h1 h2
  cases hM : mayK sp sc dp dc sq da th ta
  · have hR : encPk ((sp, sc), (dp, dc), sq, da, th, ta) = .tuple #[.string ⟨#[]⟩, .int .i64 1] := by unfold encPk mayT; rw [hM]; rfl
    rw [hR]
    simp only [hM] at CM
    clear hR hM
    go_enter Tryd.func33, Tryd.ntmps33
    go_wp2_with (go_at_call 37; refine (CM _).mono ?_; rintro e w1 ⟨rfl, hb1⟩; obtain ⟨hx1, _⟩ := bcell hb1; have hba : Below w.heap.size w w1 := by (repeat (first | assumption | exact Below.refl _ _ | refine bch ?_ (by assumption) | refine Below.alloc ?_ (by simp) _)))
    go_returns
    exact ⟨rfl, hba⟩
  simp only [hM] at CM
  obtain ⟨y1, y2, y3, y4, y5, y6, y7, y8, y9, y10, y11, y12, y13⟩ := Pk.mayK_bounds hM
  obtain ⟨scN, rfl⟩ : ∃ x : Nat, sc = x := ⟨sc.toNat, by omega⟩
  obtain ⟨dcN, rfl⟩ : ∃ x : Nat, dc = x := ⟨dc.toNat, by omega⟩
  obtain ⟨sqN, rfl⟩ : ∃ x : Nat, sq = x := ⟨sq.toNat, by omega⟩
  obtain ⟨thN, rfl⟩ : ∃ x : Nat, th = x := ⟨th.toNat, by omega⟩
  obtain ⟨taN, rfl⟩ : ∃ x : Nat, ta = x := ⟨ta.toNat, by omega⟩
  have hR : encPk ((sp, (scN : Int)), (dp, (dcN : Int)), (sqN : Int), da, (thN : Int), (taN : Int)) = .tuple #[.string ⟨(pkBy sp scN dp dcN sqN da thN taN).toArray⟩, .int .i64 0] := by
    unfold encPk mayT; rw [pkB_eq]; simp only [hM]; rfl
  rw [hR]
  clear hR hM
  have hg0 := heap_push w #[.string sp, .int .i64 (scN : Int), .string dp, .int .i64 (dcN : Int), .int .i64 (sqN : Int), .string da, .int .i64 (thN : Int), .int .i64 (taN : Int)] 45
  have hbA : Below w.heap.size w (w.alloc (.cells #[.string sp, .int .i64 (scN : Int), .string dp, .int .i64 (dcN : Int), .int .i64 (sqN : Int), .string da, .int .i64 (thN : Int), .int .i64 (taN : Int)] 45)) := Below.alloc (Below.refl _ _) (Nat.le_refl _) _
  have hsz : (w.alloc (.cells #[.string sp, .int .i64 (scN : Int), .string dp, .int .i64 (dcN : Int), .int .i64 (sqN : Int), .string da, .int .i64 (thN : Int), .int .i64 (taN : Int)] 45)).heap.size = w.heap.size + 1 := by simp
  go_enter Tryd.func33, Tryd.ntmps33
  go_upto_region 3 with (go_at_call 37; refine (CM _).mono ?_; rintro e w1 ⟨rfl, hb1⟩; rw [hsz] at hb1; have hg := cells_of hg0 hb1 (by omega); have hwB : w.heap.size ≤ w1.heap.size := (by have := hb1.size; omega); have hgB : w.heap.size < w1.heap.size := (Array.getElem?_eq_some_iff.1 hg).1; have q0 := cell_heap hg 0; have q1 := cell_heap hg 1; have q2 := cell_heap hg 2; have q3 := cell_heap hg 3; have q4 := cell_heap hg 4; have q5 := cell_heap hg 5; have q6 := cell_heap hg 6; have q7 := cell_heap hg 7; have hba : Below w.heap.size w w1 := hbA.trans (hb1.mono (by omega)))
  clear hg0 hbA hb1 hsz
  go_upto_region 4 with (go_at_call 65; refine (wnew_any w1.heap.size _ (Nat.le_refl _)).mono ?_; rintro e w2 ⟨rfl, hW, hb2⟩; have hbel := hba.trans (hb2.mono hba.size); have hBw := hb2.size; have hg := cells_of hg hb2 hgB; have q0 := cell_heap hg 0; have q1 := cell_heap hg 1; have q2 := cell_heap hg 2; have q3 := cell_heap hg 3; have q4 := cell_heap hg 4; have q5 := cell_heap hg 5; have q6 := cell_heap hg 6; have q7 := cell_heap hg 7)
  go_upto_region 5 with (go_at_call 66; refine (pkWrite_any w1.heap.size _ _ _ sp scN dp dcN sqN da thN taN hW hBw (by omega) (by omega) (by omega) (by omega) (by omega) (by omega) (by omega) (by omega) ?_).mono ?_; (first | exact Nat.zero_le _ | omega | (simp only [List.nil_append]; omega) | (simp only [List.nil_append, List.length_append]; omega)); rintro e w4 ⟨rfl, hW, hb4, _⟩; have hg := cells_of hg hb4 hgB; have q0 := cell_heap hg 0; have q1 := cell_heap hg 1; have q2 := cell_heap hg 2; have q3 := cell_heap hg 3; have q4 := cell_heap hg 4; have q5 := cell_heap hg 5; have q6 := cell_heap hg 6; have q7 := cell_heap hg 7; have hBw := Nat.le_trans hBw hb4.size; have hbel := hbel.trans (hb4.mono hwB))
  go_wp2_with (go_at_call 67; refine (wbytes_rd w1.heap.size _ _ _ hW.rd hBw).mono ?_; rintro e w9 ⟨rfl, hW9, hb9⟩; have hbel := hbel.trans (hb9.mono hwB))
  go_returns
  exact ⟨by simp, hbel⟩
theorem pkG_size (v : ByteArray) (a e : Int) : (pkG v a e).sp.size ≤ v.size ∧ (pkG v a e).dp.size ≤ v.size := by
  unfold pkG endG; exact ⟨textG_size _ _ _ _, textG_size _ _ _ _⟩
set_option maxRecDepth 100000 in
set_option maxHeartbeats 6400000 in
theorem decodePk_any (v : ByteArray) (w : World) (hv : v.size ≤ 1000000000) :
    Calls Tryd.prog 35 #[.string v] w fun e w' => e = .returned (.tuple #[.agg (decPk v).1.row, .int .i64 (decPk v).2]) ∧ Below w.heap.size w w' := by
  have hsz := pkG_size v 0 0
  have CR := fun b W h => pkRead_any b W v 0 0 h hv
  obtain ⟨⟨sp, sc, dp, dc, sq, da, th, ta, a5, e5⟩, h1⟩ : ∃ t, pkG v 0 0 = t := ⟨_, rfl⟩
  obtain ⟨E9, h9⟩ : ∃ t, endF v a5 e5 = t := ⟨_, rfl⟩
  have hD : decPk v = if E9 = 0 then (bif mayK sp sc dp dc sq da th ta then (((sp, sc), (dp, dc), sq, da, th, ta), 0) else (PkT.zero, 1)) else (PkT.zero, E9) := by
    unfold decPk decP
    rw [pkP_eq]
    simp only [h1, h9]
    rfl
  have C9 := fun b W h => rend_any b W v a5 e5 h
  simp only [h1] at CR
  simp only [h9] at C9
  rw [h1] at hsz
  simp only at hsz
  obtain ⟨z1, z2⟩ := hsz
  have CM := fun W => mayPk_any sp sc dp dc sq da th ta W (by unfold maxLen; omega) (by unfold maxLen; omega)
  have HD := Lib.hid hD
  clear hD h1 h9 z1 z2
  go_enter Tryd.func35, Tryd.ntmps35
  go_upto_region 2 with (go_at_call 69; refine (rof_any v _).mono ?_; rintro e wb ⟨rfl, hR, hbb⟩)
  have hz0 := heap_push w #[.string ⟨#[]⟩, .int .i64 0, .string ⟨#[]⟩, .int .i64 0, .int .i64 0, .string ⟨#[]⟩, .int .i64 0, .int .i64 0] 45
  have hbs : (w.alloc (.cells #[.string ⟨#[]⟩, .int .i64 0, .string ⟨#[]⟩, .int .i64 0, .int .i64 0, .string ⟨#[]⟩, .int .i64 0, .int .i64 0] 45)).heap.size = w.heap.size + 1 := by simp
  rw [hbs] at hR hbb
  have hZ := cells_of hz0 hbb (by omega)
  have hbel : Below w.heap.size w wb := (Below.alloc (Below.refl _ _) (Nat.le_refl _) _).trans (hbb.mono (by omega))
  clear hz0 hbb
  have hzb : w.heap.size ≠ w.heap.size + 1 := by omega
  go_upto_region 3 with (go_at_call 70; refine (CR _ _ hR).mono ?_; rintro e w1 ⟨rfl, hR, hk⟩; have hZ := hk.row5 hZ hzb; have hbel := hbel.trans (hk.below (Nat.le_succ _) hbel.size))
  refine wp_nameE _ (fun W8 hW8 => ?_)
  have hba : Below w1.heap.size w1 W8 := by rw [hW8]; exact Below.alloc (Below.refl _ _) (Nat.le_refl _) _
  have hG : W8.heap[w1.heap.size]? = some (.cells #[.string sp, .int .i64 sc, .string dp, .int .i64 dc, .int .i64 sq, .string da, .int .i64 th, .int .i64 ta] 45 (0, 0)) := by
    rw [hW8]; show (w1.heap.push _)[w1.heap.size]? = _; rw [Array.getElem?_push_size]
  have hZ := cells_of hZ hba (Array.getElem?_eq_some_iff.1 hZ).1
  have hR := hR.below hba hR.lt
  have hbel := hbel.trans (hba.mono hbel.size)
  clear hW8 hba hbs CR
  have q0 := cell_heap hG 0; have q1 := cell_heap hG 1; have q2 := cell_heap hG 2; have q3 := cell_heap hG 3; have q4 := cell_heap hG 4; have q5 := cell_heap hG 5; have q6 := cell_heap hG 6; have q7 := cell_heap hG 7
  have hgl : w1.heap.size < W8.heap.size := (Array.getElem?_eq_some_iff.1 hG).1
  have hzl : w.heap.size < W8.heap.size := (Array.getElem?_eq_some_iff.1 hZ).1
  by_cases hE : E9 = 0
  · subst hE
    cases hM : mayK sp sc dp dc sq da th ta
    · simp only [hM] at CM
      go_upto_region 7 with (first | (go_at_call 71; refine (C9 _ _ hR).mono ?_; rintro e w9 ⟨rfl, hb9⟩; have hG := cells_of hG hb9 hgl; have hZ := cells_of hZ hb9 hzl; have hbel := hbel.trans (hb9.mono hbel.size); have q0 := cell_heap hG 0; have q1 := cell_heap hG 1; have q2 := cell_heap hG 2; have q3 := cell_heap hG 3; have q4 := cell_heap hG 4; have q5 := cell_heap hG 5; have q6 := cell_heap hG 6; have q7 := cell_heap hG 7) | (go_at_call 37; refine (CM _).mono ?_; rintro e w10 ⟨rfl, hb10⟩; have hG := cells_of hG hb10 (Nat.lt_of_lt_of_le hgl hb9.size); have hZ := cells_of hZ hb10 (Nat.lt_of_lt_of_le hzl hb9.size); have hbel := hbel.trans (hb10.mono hbel.size); have q0 := cell_heap hG 0; have q1 := cell_heap hG 1; have q2 := cell_heap hG 2; have q3 := cell_heap hG 3; have q4 := cell_heap hG 4; have q5 := cell_heap hG 5; have q6 := cell_heap hG 6; have q7 := cell_heap hG 7))
      go_wp2_with (refine wpList_storeRowTo rfl (.tmp 2) (.tmp 20) 45 rfl (by kernel_rfl) rfl rfl hZ rfl (Pk.row_one8 _ _ _ _ _ _ _ _ ) ?_)
      have hZ : (World.setRow _ w.heap.size #[.string ⟨#[]⟩, .int .i64 0, .string ⟨#[]⟩, .int .i64 0, .int .i64 0, .string ⟨#[]⟩, .int .i64 0, .int .i64 0]).heap[w.heap.size]? = some (.cells #[.string ⟨#[]⟩, .int .i64 0, .string ⟨#[]⟩, .int .i64 0, .int .i64 0, .string ⟨#[]⟩, .int .i64 0, .int .i64 0] 45 (0, 0)) := setRow_heap _ _ _ _ _ _ hZ
      have hrd := run_loadVar_mid (P := Tryd.prog) _ w.heap.size 0 45 (#[.string ⟨#[]⟩, .int .i64 0, .string ⟨#[]⟩, .int .i64 0, .int .i64 0, .string ⟨#[]⟩, .int .i64 0, .int .i64 0] : Array Value).toList _ (rangeAt_row5 hZ) Tryd.underlying45 rfl (by kernel_rfl)
      refine bodyPost_ret (v := .tuple #[.agg #[.string ⟨#[]⟩, .int .i64 0, .string ⟨#[]⟩, .int .i64 0, .int .i64 0, .string ⟨#[]⟩, .int .i64 0, .int .i64 0], .int .i64 1]) ?_ rfl ?_
      · simp [results, Tryd.results35, asAddr, hrd]
        try rfl
      exact ⟨by rw [HD.out]; rw [if_pos trivial, hM]; rfl, below_setRow hbel (Nat.le_refl _) _⟩
    · simp only [hM] at CM
      go_upto_region 8 with (first | (go_at_call 71; refine (C9 _ _ hR).mono ?_; rintro e w9 ⟨rfl, hb9⟩; have hG := cells_of hG hb9 hgl; have hZ := cells_of hZ hb9 hzl; have hbel := hbel.trans (hb9.mono hbel.size); have q0 := cell_heap hG 0; have q1 := cell_heap hG 1; have q2 := cell_heap hG 2; have q3 := cell_heap hG 3; have q4 := cell_heap hG 4; have q5 := cell_heap hG 5; have q6 := cell_heap hG 6; have q7 := cell_heap hG 7) | (go_at_call 37; refine (CM _).mono ?_; rintro e w10 ⟨rfl, hb10⟩; have hG := cells_of hG hb10 (Nat.lt_of_lt_of_le hgl hb9.size); have hZ := cells_of hZ hb10 (Nat.lt_of_lt_of_le hzl hb9.size); have hbel := hbel.trans (hb10.mono hbel.size); have q0 := cell_heap hG 0; have q1 := cell_heap hG 1; have q2 := cell_heap hG 2; have q3 := cell_heap hG 3; have q4 := cell_heap hG 4; have q5 := cell_heap hG 5; have q6 := cell_heap hG 6; have q7 := cell_heap hG 7))
      go_wp2_with (refine wpList_storeRowTo rfl (.tmp 2) (.tmp 21) 45 rfl (by kernel_rfl) rfl rfl hZ rfl (Pk.row_one8 _ _ _ _ _ _ _ _ ) ?_)
      have hZ : (World.setRow _ w.heap.size #[.string sp, .int .i64 sc, .string dp, .int .i64 dc, .int .i64 sq, .string da, .int .i64 th, .int .i64 ta]).heap[w.heap.size]? = some (.cells #[.string sp, .int .i64 sc, .string dp, .int .i64 dc, .int .i64 sq, .string da, .int .i64 th, .int .i64 ta] 45 (0, 0)) := setRow_heap _ _ _ _ _ _ hZ
      have hrd := run_loadVar_mid (P := Tryd.prog) _ w.heap.size 0 45 (#[.string sp, .int .i64 sc, .string dp, .int .i64 dc, .int .i64 sq, .string da, .int .i64 th, .int .i64 ta] : Array Value).toList _ (rangeAt_row5 hZ) Tryd.underlying45 rfl (by kernel_rfl)
      refine bodyPost_ret (v := .tuple #[.agg #[.string sp, .int .i64 sc, .string dp, .int .i64 dc, .int .i64 sq, .string da, .int .i64 th, .int .i64 ta], .int .i64 0]) ?_ rfl ?_
      · simp [results, Tryd.results35, asAddr, hrd]
        try rfl
      exact ⟨by rw [HD.out]; rw [if_pos trivial, hM]; rfl, below_setRow hbel (Nat.le_refl _) _⟩
  · have hE0 : (E9 == 0) = false := beq_eq_false_iff_ne.2 hE
    go_upto_region 5 with (first | (go_at_call 71; refine (C9 _ _ hR).mono ?_; rintro e w9 ⟨rfl, hb9⟩; have hG := cells_of hG hb9 hgl; have hZ := cells_of hZ hb9 hzl; have hbel := hbel.trans (hb9.mono hbel.size); have q0 := cell_heap hG 0; have q1 := cell_heap hG 1; have q2 := cell_heap hG 2; have q3 := cell_heap hG 3; have q4 := cell_heap hG 4; have q5 := cell_heap hG 5; have q6 := cell_heap hG 6; have q7 := cell_heap hG 7))
    go_wp2_with (refine wpList_storeRowTo rfl (.tmp 2) (.tmp 15) 45 rfl (by kernel_rfl) rfl rfl hZ rfl (Pk.row_one8 _ _ _ _ _ _ _ _ ) ?_)
    have hZ : (World.setRow _ w.heap.size #[.string ⟨#[]⟩, .int .i64 0, .string ⟨#[]⟩, .int .i64 0, .int .i64 0, .string ⟨#[]⟩, .int .i64 0, .int .i64 0]).heap[w.heap.size]? = some (.cells #[.string ⟨#[]⟩, .int .i64 0, .string ⟨#[]⟩, .int .i64 0, .int .i64 0, .string ⟨#[]⟩, .int .i64 0, .int .i64 0] 45 (0, 0)) := setRow_heap _ _ _ _ _ _ hZ
    have hrd := run_loadVar_mid (P := Tryd.prog) _ w.heap.size 0 45 (#[.string ⟨#[]⟩, .int .i64 0, .string ⟨#[]⟩, .int .i64 0, .int .i64 0, .string ⟨#[]⟩, .int .i64 0, .int .i64 0] : Array Value).toList _ (rangeAt_row5 hZ) Tryd.underlying45 rfl (by kernel_rfl)
    refine bodyPost_ret (v := .tuple #[.agg #[.string ⟨#[]⟩, .int .i64 0, .string ⟨#[]⟩, .int .i64 0, .int .i64 0, .string ⟨#[]⟩, .int .i64 0, .int .i64 0], .int .i64 E9]) ?_ rfl ?_
    · simp [results, Tryd.results35, asAddr, hrd]
      try rfl
    exact ⟨by rw [HD.out]; rw [if_neg hE]; rfl, below_setRow hbel (Nat.le_refl _) _⟩
theorem flat_one (s : ByteArray) : flat [s] = s.data.toList := by simp [flat]
theorem RowAt.lit3 {w : World} {cs : Array Value} {e : TypeId} {g : Nat} {vs : List Value} (hg : g = w.heap.size) (h : cs.toList = vs) : RowAt (w.alloc (.cells cs e)) (some ⟨g, 0, none⟩) vs := by
  subst hg h
  refine .inr ⟨_, _, rfl, by simp, fun j hj => ?_⟩
  rw [Nat.zero_add, World.cell?_alloc_at _ _ _ _ rfl]; simp
theorem eightL_le (v : Int) : (eightL v).length ≤ 8 := by
  unfold eightL
  split
  · rw [be_length]; omega
  · simp
/-- A packet's commitment. -/
def comF (da : ByteArray) (th ta : Int) : List UInt8 := shaF (flat [⟨(eightL th).toArray⟩, ⟨(eightL ta).toArray⟩, ⟨(shaF da.data.toList).toArray⟩])
theorem comF_len (da : ByteArray) (th ta : Int) : (comF da th ta).length = 32 := shaF_len _
theorem com_len (da : ByteArray) (th ta : Int) : (flat [⟨(eightL th).toArray⟩, ⟨(eightL ta).toArray⟩, ⟨(shaF da.data.toList).toArray⟩]).length ≤ 1000000000000 := by
  have a := eightL_le th
  have b := eightL_le ta
  have c := shaF_len da.data.toList
  simp only [flat, List.flatMap_cons, List.flatMap_nil, List.append_nil, List.length_append]
  omega
set_option maxRecDepth 100000 in
set_option maxHeartbeats 6400000 in
theorem commit_any (sp : ByteArray) (sc : Int) (dp : ByteArray) (dc sq : Int) (da : ByteArray) (th ta : Int) (w : World) (hW : SW w) (hM : mayK sp sc dp dc sq da th ta = true) :
    Calls Tryd.prog 30 #[.agg #[.string sp, .int .i64 sc, .string dp, .int .i64 dc, .int .i64 sq, .string da, .int .i64 th, .int .i64 ta]] w fun e w' => e = .returned (.agg (hrow (comF da th ta))) ∧ Below w.heap.size w w' := by
  have hbd := Pk.mayK_bounds hM
  have CM := fun W => mayPk_any sp sc dp dc sq da th ta W (by unfold maxLen; omega) (by unfold maxLen; omega)
  simp only [hM] at CM
  have hda : da.size ≤ 200 := hbd.2.2.1
  clear hbd hM
  have g0 : ((w.alloc (.cells #[.string sp, .int .i64 sc, .string dp, .int .i64 dc, .int .i64 sq, .string da, .int .i64 th, .int .i64 ta] 45)).alloc (.cells #[Value.int .u8 0, Value.int .u8 0, Value.int .u8 0, Value.int .u8 0, Value.int .u8 0, Value.int .u8 0, Value.int .u8 0, Value.int .u8 0, Value.int .u8 0, Value.int .u8 0, Value.int .u8 0, Value.int .u8 0, Value.int .u8 0, Value.int .u8 0, Value.int .u8 0, Value.int .u8 0, Value.int .u8 0, Value.int .u8 0, Value.int .u8 0, Value.int .u8 0, Value.int .u8 0, Value.int .u8 0, Value.int .u8 0, Value.int .u8 0, Value.int .u8 0, Value.int .u8 0, Value.int .u8 0, Value.int .u8 0, Value.int .u8 0, Value.int .u8 0, Value.int .u8 0, Value.int .u8 0] 26)).heap[w.heap.size]? = some (.cells #[.string sp, .int .i64 sc, .string dp, .int .i64 dc, .int .i64 sq, .string da, .int .i64 th, .int .i64 ta] 45 (0, 0)) := by
    show ((w.heap.push _).push _)[w.heap.size]? = _
    rw [Array.getElem?_push_lt (by simp), ← Array.getElem?_eq_getElem (by simp), Array.getElem?_push_size]
  have g1 : ((w.alloc (.cells #[.string sp, .int .i64 sc, .string dp, .int .i64 dc, .int .i64 sq, .string da, .int .i64 th, .int .i64 ta] 45)).alloc (.cells #[Value.int .u8 0, Value.int .u8 0, Value.int .u8 0, Value.int .u8 0, Value.int .u8 0, Value.int .u8 0, Value.int .u8 0, Value.int .u8 0, Value.int .u8 0, Value.int .u8 0, Value.int .u8 0, Value.int .u8 0, Value.int .u8 0, Value.int .u8 0, Value.int .u8 0, Value.int .u8 0, Value.int .u8 0, Value.int .u8 0, Value.int .u8 0, Value.int .u8 0, Value.int .u8 0, Value.int .u8 0, Value.int .u8 0, Value.int .u8 0, Value.int .u8 0, Value.int .u8 0, Value.int .u8 0, Value.int .u8 0, Value.int .u8 0, Value.int .u8 0, Value.int .u8 0, Value.int .u8 0] 26)).heap[w.heap.size + 1]? = some (.cells #[Value.int .u8 0, Value.int .u8 0, Value.int .u8 0, Value.int .u8 0, Value.int .u8 0, Value.int .u8 0, Value.int .u8 0, Value.int .u8 0, Value.int .u8 0, Value.int .u8 0, Value.int .u8 0, Value.int .u8 0, Value.int .u8 0, Value.int .u8 0, Value.int .u8 0, Value.int .u8 0, Value.int .u8 0, Value.int .u8 0, Value.int .u8 0, Value.int .u8 0, Value.int .u8 0, Value.int .u8 0, Value.int .u8 0, Value.int .u8 0, Value.int .u8 0, Value.int .u8 0, Value.int .u8 0, Value.int .u8 0, Value.int .u8 0, Value.int .u8 0, Value.int .u8 0, Value.int .u8 0] 26 (0, 0)) := by
    show ((w.heap.push _).push _)[w.heap.size + 1]? = _
    rw [show w.heap.size + 1 = (w.heap.push (Obj.cells #[.string sp, .int .i64 sc, .string dp, .int .i64 dc, .int .i64 sq, .string da, .int .i64 th, .int .i64 ta] 45 (0, 0))).size by simp, Array.getElem?_push_size]
  have hbA : Below w.heap.size w ((w.alloc (.cells #[.string sp, .int .i64 sc, .string dp, .int .i64 dc, .int .i64 sq, .string da, .int .i64 th, .int .i64 ta] 45)).alloc (.cells #[Value.int .u8 0, Value.int .u8 0, Value.int .u8 0, Value.int .u8 0, Value.int .u8 0, Value.int .u8 0, Value.int .u8 0, Value.int .u8 0, Value.int .u8 0, Value.int .u8 0, Value.int .u8 0, Value.int .u8 0, Value.int .u8 0, Value.int .u8 0, Value.int .u8 0, Value.int .u8 0, Value.int .u8 0, Value.int .u8 0, Value.int .u8 0, Value.int .u8 0, Value.int .u8 0, Value.int .u8 0, Value.int .u8 0, Value.int .u8 0, Value.int .u8 0, Value.int .u8 0, Value.int .u8 0, Value.int .u8 0, Value.int .u8 0, Value.int .u8 0, Value.int .u8 0, Value.int .u8 0] 26)) := Below.alloc (Below.alloc (Below.refl _ _) (Nat.le_refl _) _) (by simp) _
  go_enter Tryd.func30, Tryd.ntmps30
  go_upto_region 1 with fail
  refine wp_nameE _ (fun W1 hX => ?_)
  have hg : W1.heap[w.heap.size]? = some (.cells #[.string sp, .int .i64 sc, .string dp, .int .i64 dc, .int .i64 sq, .string da, .int .i64 th, .int .i64 ta] 45 (0, 0)) := by rw [hX]; exact g0
  have y0 : W1.heap[w.heap.size + 1]? = some (.cells #[Value.int .u8 0, Value.int .u8 0, Value.int .u8 0, Value.int .u8 0, Value.int .u8 0, Value.int .u8 0, Value.int .u8 0, Value.int .u8 0, Value.int .u8 0, Value.int .u8 0, Value.int .u8 0, Value.int .u8 0, Value.int .u8 0, Value.int .u8 0, Value.int .u8 0, Value.int .u8 0, Value.int .u8 0, Value.int .u8 0, Value.int .u8 0, Value.int .u8 0, Value.int .u8 0, Value.int .u8 0, Value.int .u8 0, Value.int .u8 0, Value.int .u8 0, Value.int .u8 0, Value.int .u8 0, Value.int .u8 0, Value.int .u8 0, Value.int .u8 0, Value.int .u8 0, Value.int .u8 0] 26 (0, 0)) := by rw [hX]; exact g1
  have hbel : Below w.heap.size w W1 := by rw [hX]; exact hbA
  have hW := hW.below hbel
  clear hX g0 g1 hbA
  have q0 := cell_heap hg 0; have q1 := cell_heap hg 1; have q2 := cell_heap hg 2; have q3 := cell_heap hg 3; have q4 := cell_heap hg 4; have q5 := cell_heap hg 5; have q6 := cell_heap hg 6; have q7 := cell_heap hg 7
  have hyl : w.heap.size + 1 < W1.heap.size := (Array.getElem?_eq_some_iff.1 y0).1
  go_upto_region 3 with (go_at_call 37; refine (CM _).mono ?_; rintro e w2 ⟨rfl, hb2⟩)
  have hg := cells_of hg hb2 (by omega)
  have y0 := cells_of y0 hb2 hyl
  have hbel := hbel.trans (hb2.mono hbel.size)
  have hW := hW.below hb2
  have hgl : w.heap.size < w2.heap.size := (Array.getElem?_eq_some_iff.1 hg).1
  have hyl : w.heap.size + 1 < w2.heap.size := (Array.getElem?_eq_some_iff.1 y0).1
  clear hb2 CM
  refine wp_region_facts_tail 13 rfl [Fact.eq (.pointer (some ⟨w.heap.size, 6, none⟩)), Fact.eq (.int .i64 th), Fact.eq (.string ⟨(eightL th).toArray⟩), Fact.eq (.pointer (some ⟨w.heap.size, 7, none⟩)), Fact.eq (.int .i64 ta), Fact.eq (.string ⟨(eightL ta).toArray⟩), Fact.eq (.pointer (some ⟨w.heap.size, 5, none⟩)), Fact.eq (.string da), Fact.row (1) ([.string da]), Fact.eq (.agg (hrow (shaF da.data.toList))), Fact.eq (.string ⟨(shaF da.data.toList).toArray⟩), Fact.row (3) ([.string ⟨(eightL th).toArray⟩, .string ⟨(eightL ta).toArray⟩, .string ⟨(shaF da.data.toList).toArray⟩]), Fact.eq (.agg (hrow (comF da th ta)))] (by kernel_rfl) (by kernel_rfl) (by kernel_rfl) (by kernel_rfl) (by kernel_rfl) (fun x => by simp only [List.take_succ_cons, List.take_zero, fillFrom, Act.put, List.setIfInBounds_toArray, List.set_cons_succ, List.set_cons_zero]; rfl) ?_ ?_
  · refine ⟨?_, ?_, ?_, ?_, ?_, ?_, ?_, ?_, ?_, ?_, ?_, ?_, ?_, trivial⟩
    · intro x w' hbw hd
      clear hd
      go_wp2_with fail
      exact frPost_mk rfl (by repeat (first | assumption | exact Below.refl _ _ | refine bch ?_ (by assumption) | refine Below.alloc ?_ (by simp) _)) rfl
    · intro x w' hbw hd
      have d0 : x 0 = .pointer (some ⟨w.heap.size, 6, none⟩) := hd 0 rfl
      clear hd
      have hgc := cells_of hg hbw hgl
      have q0 := cell_heap hgc 0; have q1 := cell_heap hgc 1; have q2 := cell_heap hgc 2; have q3 := cell_heap hgc 3; have q4 := cell_heap hgc 4; have q5 := cell_heap hgc 5; have q6 := cell_heap hgc 6; have q7 := cell_heap hgc 7
      go_wp2_with fail
      exact frPost_mk rfl (by repeat (first | assumption | exact Below.refl _ _ | refine bch ?_ (by assumption) | refine Below.alloc ?_ (by simp) _)) rfl
    · intro x w' hbw hd
      have d1 : x 1 = .int .i64 th := hd 1 rfl
      clear hd
      go_wp2_with (first | (go_at_call 63; refine (eight_any th _).mono ?_; rintro e wx ⟨rfl, hbx⟩))
      exact frPost_mk rfl (by repeat (first | assumption | exact Below.refl _ _ | refine bch ?_ (by assumption) | refine Below.alloc ?_ (by simp) _)) rfl
    · intro x w' hbw hd
      clear hd
      go_wp2_with fail
      exact frPost_mk rfl (by repeat (first | assumption | exact Below.refl _ _ | refine bch ?_ (by assumption) | refine Below.alloc ?_ (by simp) _)) rfl
    · intro x w' hbw hd
      have d3 : x 3 = .pointer (some ⟨w.heap.size, 7, none⟩) := hd 3 rfl
      clear hd
      have hgc := cells_of hg hbw hgl
      have q0 := cell_heap hgc 0; have q1 := cell_heap hgc 1; have q2 := cell_heap hgc 2; have q3 := cell_heap hgc 3; have q4 := cell_heap hgc 4; have q5 := cell_heap hgc 5; have q6 := cell_heap hgc 6; have q7 := cell_heap hgc 7
      go_wp2_with fail
      exact frPost_mk rfl (by repeat (first | assumption | exact Below.refl _ _ | refine bch ?_ (by assumption) | refine Below.alloc ?_ (by simp) _)) rfl
    · intro x w' hbw hd
      have d4 : x 4 = .int .i64 ta := hd 4 rfl
      clear hd
      go_wp2_with (first | (go_at_call 63; refine (eight_any ta _).mono ?_; rintro e wx ⟨rfl, hbx⟩))
      exact frPost_mk rfl (by repeat (first | assumption | exact Below.refl _ _ | refine bch ?_ (by assumption) | refine Below.alloc ?_ (by simp) _)) rfl
    · intro x w' hbw hd
      clear hd
      go_wp2_with fail
      exact frPost_mk rfl (by repeat (first | assumption | exact Below.refl _ _ | refine bch ?_ (by assumption) | refine Below.alloc ?_ (by simp) _)) rfl
    · intro x w' hbw hd
      have d6 : x 6 = .pointer (some ⟨w.heap.size, 5, none⟩) := hd 6 rfl
      clear hd
      have hgc := cells_of hg hbw hgl
      have q0 := cell_heap hgc 0; have q1 := cell_heap hgc 1; have q2 := cell_heap hgc 2; have q3 := cell_heap hgc 3; have q4 := cell_heap hgc 4; have q5 := cell_heap hgc 5; have q6 := cell_heap hgc 6; have q7 := cell_heap hgc 7
      go_wp2_with fail
      exact frPost_mk rfl (by repeat (first | assumption | exact Below.refl _ _ | refine bch ?_ (by assumption) | refine Below.alloc ?_ (by simp) _)) rfl
    · intro x w' hbw hd
      have d7 : x 7 = .string da := hd 7 rfl
      clear hd
      go_wp2_with fail
      exact frPost_mk rfl (by repeat (first | assumption | exact Below.refl _ _ | refine bch ?_ (by assumption) | refine Below.alloc ?_ (by simp) _)) ⟨_, _, rfl, RowAt.lit3 rfl rfl⟩
    · intro x w' hbw hd
      obtain ⟨a8, cap8, d8, r8⟩ := (show (Fact.row (1) ([.string da])).holds (x 8) w' from hd 8 rfl)
      clear hd
      have CC := sum_any a8 1 cap8 [da] w' (show RowAt w' a8 (([da] : List ByteArray).flatMap sval) from r8) rfl (hW.below hbw) (by rw [flat_one]; rw [str_len]; omega) (by unfold maxLen; omega)
      rw [flat_one] at CC
      go_wp2_with (first | (go_at_call 17; refine CC.mono ?_; rintro e wx ⟨rfl, hbx⟩))
      exact frPost_mk rfl (by repeat (first | assumption | exact Below.refl _ _ | refine bch ?_ (by assumption) | refine Below.alloc ?_ (by simp) _)) rfl
    · intro x w' hbw hd
      have d9 : x 9 = .agg (hrow (shaF da.data.toList)) := hd 9 rfl
      clear hd
      have CC := shaText_any (shaF da.data.toList) w' (shaF_len _)
      go_wp2_with (first | (go_at_call 20; refine CC.mono ?_; rintro e wx ⟨rfl, hbx⟩))
      exact frPost_mk rfl (by repeat (first | assumption | exact Below.refl _ _ | refine bch ?_ (by assumption) | refine Below.alloc ?_ (by simp) _)) rfl
    · intro x w' hbw hd
      have d2 : x 2 = .string ⟨(eightL th).toArray⟩ := hd 2 rfl
      have d5 : x 5 = .string ⟨(eightL ta).toArray⟩ := hd 5 rfl
      have d10 : x 10 = .string ⟨(shaF da.data.toList).toArray⟩ := hd 10 rfl
      clear hd
      go_wp2_with fail
      exact frPost_mk rfl (by repeat (first | assumption | exact Below.refl _ _ | refine bch ?_ (by assumption) | refine Below.alloc ?_ (by simp) _)) ⟨_, _, rfl, RowAt.lit3 rfl rfl⟩
    · intro x w' hbw hd
      obtain ⟨a11, cap11, d11, r11⟩ := (show (Fact.row (3) ([.string ⟨(eightL th).toArray⟩, .string ⟨(eightL ta).toArray⟩, .string ⟨(shaF da.data.toList).toArray⟩])).holds (x 11) w' from hd 11 rfl)
      clear hd
      have CC := sum_any a11 3 cap11 [⟨(eightL th).toArray⟩, ⟨(eightL ta).toArray⟩, ⟨(shaF da.data.toList).toArray⟩] w' (show RowAt w' a11 (([⟨(eightL th).toArray⟩, ⟨(eightL ta).toArray⟩, ⟨(shaF da.data.toList).toArray⟩] : List ByteArray).flatMap sval) from r11) rfl (hW.below hbw) (com_len da th ta) (by unfold maxLen; omega)
      go_wp2_with (first | (go_at_call 17; refine CC.mono ?_; rintro e wx ⟨rfl, hbx⟩))
      exact frPost_mk rfl (by repeat (first | assumption | exact Below.refl _ _ | refine bch ?_ (by assumption) | refine Below.alloc ?_ (by simp) _)) rfl
  · intro x w' hbw hall
    have hf : x 12 = .agg (hrow (comF da th ta)) := hall 12 (by decide)
    clear hall
    simp only [hf, List.drop_succ_cons, List.drop_zero]
    have hl := comF_len da th ta
    have hsz : (hrow (comF da th ta)).size = 32 := by rw [hrow_size]; exact hl
    have hone := hrow_one (comF da th ta)
    have y0 := cells_of y0 hbw hyl
    have hbel := hbel.trans (hbw.mono hbel.size)
    go_wp2_with (refine wpList_storeRowTo rfl (.tmp 2) (.tmp 19) 26 rfl (by rw [hsz]; kernel_rfl) rfl rfl y0 (by rw [hsz]; rfl) hone ?_)
    refine bodyPost_ret (v := .agg (hrow (comF da th ta))) ?_ rfl ?_
    · simp [results, Tryd.results30, Act.put, asAddr]
      exact run_loadVar_row _ _ 26 26 _ (0, 0) _ (setRow_heap _ _ _ _ _ _ y0) Tryd.underlying26 rfl (by rw [hsz]; kernel_rfl)
    exact ⟨rfl, below_setRow hbel (by omega) _⟩
end Go.Proofs.YtfblbholkhdldaaDoor
namespace Go.Proofs.YtfblbholkhdldaaDoor
open Go.RowKit
attribute [local go_sem] strV
set_option linter.unusedVariables false
set_option maxRecDepth 100000 in
set_option maxHeartbeats 12800000 in
theorem walkPacketBack (sp : ByteArray) (sc : Int) (dp : ByteArray) (dc sq : Int) (da : ByteArray) (th ta : Int) (v : ByteArray) (w : World) (hW : SW w) (s1 : sp.size ≤ maxLen) (s2 : dp.size ≤ maxLen) (hv : v.size ≤ maxLen) :
    Calls Tryd.prog 8 #[.agg #[.string sp, .int .i64 sc, .string dp, .int .i64 dc, .int .i64 sq, .string da, .int .i64 th, .int .i64 ta], .string v] w fun e w' => e = .returned (.bool true) ∧ Below w.heap.size w w' := by
  obtain ⟨lb, hlb⟩ : ∃ b, lightK sp dp da = b := ⟨_, rfl⟩
  have CL := fun (W : World) => light_any sp sc dp dc sq da th ta W
  simp only [hlb] at CL
  have CM := fun W => mayPk_any sp sc dp dc sq da th ta W s1 s2
  have CE := fun W => encodePk_any sp sc dp dc sq da th ta W s1 s2
  have CSm := fun W => same_self sp sc dp dc sq da th ta W
  have hg0 := heap_push w #[.string sp, .int .i64 sc, .string dp, .int .i64 dc, .int .i64 sq, .string da, .int .i64 th, .int .i64 ta] 45
  have hbA : Below w.heap.size w (w.alloc (.cells #[.string sp, .int .i64 sc, .string dp, .int .i64 dc, .int .i64 sq, .string da, .int .i64 th, .int .i64 ta] 45)) := Below.alloc (Below.refl _ _) (Nat.le_refl _) _
  go_enter Tryd.func8, Tryd.ntmps8
  go_upto_region 3 with (go_at_call 28; refine (first5_any _).mono ?_; rintro e wa ⟨rfl, hba⟩; have hg := cells_of hg0 hba (by simp); have q0 := cell_heap hg 0; have q1 := cell_heap hg 1; have q2 := cell_heap hg 2; have q3 := cell_heap hg 3; have q4 := cell_heap hg 4; have q5 := cell_heap hg 5; have q6 := cell_heap hg 6; have q7 := cell_heap hg 7)
  have hbel := hbA.trans (hba.mono hbA.size)
  have hW := hW.below hbel
  have hgl := (Array.getElem?_eq_some_iff.1 hg).1
  clear hg0 hbA hba hlb
  cases lb
  · go_wp2_with (first | (go_at_call 29; refine (CL _).mono ?_; rintro e w6 ⟨rfl, hb⟩; have hg := cells_of hg hb hgl; have hgl := Nat.lt_of_lt_of_le hgl hb.size; have hW := hW.below hb; have hbel := hbel.trans (hb.mono hbel.size); have q0 := cell_heap hg 0; have q1 := cell_heap hg 1; have q2 := cell_heap hg 2; have q3 := cell_heap hg 3; have q4 := cell_heap hg 4; have q5 := cell_heap hg 5; have q6 := cell_heap hg 6; have q7 := cell_heap hg 7) | (go_at_call 28; refine (first5_any _).mono ?_; rintro e wz ⟨rfl, hbz⟩; have hbel := hbel.trans (hbz.mono hbel.size)))
    go_ret
    exact ⟨rfl, hbel⟩
  by_cases hv2 : 600 < v.size
  · have dv : decide ((600 : Int) < (v.size : Int)) = true := decide_eq_true (by omega)
    go_wp2_with (first | (go_at_call 29; refine (CL _).mono ?_; rintro e w6 ⟨rfl, hb⟩; have hg := cells_of hg hb hgl; have hgl := Nat.lt_of_lt_of_le hgl hb.size; have hW := hW.below hb; have hbel := hbel.trans (hb.mono hbel.size); have q0 := cell_heap hg 0; have q1 := cell_heap hg 1; have q2 := cell_heap hg 2; have q3 := cell_heap hg 3; have q4 := cell_heap hg 4; have q5 := cell_heap hg 5; have q6 := cell_heap hg 6; have q7 := cell_heap hg 7) | (go_at_call 28; refine (first5_any _).mono ?_; rintro e wz ⟨rfl, hbz⟩; have hbel := hbel.trans (hbz.mono hbel.size)))
    go_ret
    exact ⟨rfl, hbel⟩
  have dv : decide ((600 : Int) < (v.size : Int)) = false := decide_eq_false (by omega)
  go_upto_region 5 with (go_at_call 29; refine (CL _).mono ?_; rintro e w6 ⟨rfl, hb⟩; have hg := cells_of hg hb hgl; have hgl := Nat.lt_of_lt_of_le hgl hb.size; have hW := hW.below hb; have hbel := hbel.trans (hb.mono hbel.size); have q0 := cell_heap hg 0; have q1 := cell_heap hg 1; have q2 := cell_heap hg 2; have q3 := cell_heap hg 3; have q4 := cell_heap hg 4; have q5 := cell_heap hg 5; have q6 := cell_heap hg 6; have q7 := cell_heap hg 7)
  clear dv CL
  have CD3 := fun W => decodePk_any v W (by omega)
  obtain ⟨⟨⟨⟨sp2, sc2⟩, ⟨dp2, dc2⟩, sq2, da2, th2, ta2⟩, f⟩, hx⟩ : ∃ t, decPk v = t := ⟨_, rfl⟩
  simp only [hx] at CD3
  cases hM : mayK sp sc dp dc sq da th ta
  · simp only [hM] at CM
    have henc : encPk ((sp, sc), (dp, dc), sq, da, th, ta) = .tuple #[.string ⟨#[]⟩, .int .i64 1] := by unfold encPk; rw [show mayT ((sp, sc), (dp, dc), sq, da, th, ta) = false from hM]; rfl
    simp only [henc] at CE
    clear henc hM
    by_cases hf : f = 0
    · subst hf
      have hb2 := decPk_back (v := v) (by rw [hx])
      rw [hx] at hb2
      simp only at hb2
      obtain ⟨hMx, hEx⟩ := hb2
      have hxs := Pk.mayK_bounds hMx
      simp only at hxs
      have hx1s : sp2.size ≤ maxLen := by unfold maxLen; omega
      have hx2s : dp2.size ≤ maxLen := by unfold maxLen; omega
      have CEx := fun W => encodePk_any sp2 sc2 dp2 dc2 sq2 da2 th2 ta2 W hx1s hx2s
      have CMx := fun W => mayPk_any sp2 sc2 dp2 dc2 sq2 da2 th2 ta2 W hx1s hx2s
      have hencx : encPk ((sp2, sc2), (dp2, dc2), sq2, da2, th2, ta2) = .tuple #[.string v, .int .i64 0] := by
        unfold encPk; rw [hMx, hEx]; rfl
      simp only [hencx] at CEx
      have hMx' : mayK sp2 sc2 dp2 dc2 sq2 da2 th2 ta2 = true := hMx
      simp only [hMx'] at CMx
      simp only [PkT.row] at CD3
      clear hencx hMx hMx' hEx hx hxs hx1s hx2s
      go_upto_region 6 with (go_at_call 33; refine (CE _).mono ?_; rintro e w5 ⟨rfl, hb⟩; have hg := cells_of hg hb hgl; have hgl := Nat.lt_of_lt_of_le hgl hb.size; have hW := hW.below hb; have hbel := hbel.trans (hb.mono hbel.size); have q0 := cell_heap hg 0; have q1 := cell_heap hg 1; have q2 := cell_heap hg 2; have q3 := cell_heap hg 3; have q4 := cell_heap hg 4; have q5 := cell_heap hg 5; have q6 := cell_heap hg 6; have q7 := cell_heap hg 7)
      go_upto_region 13 with (go_at_call 37; refine (CM _).mono ?_; rintro e w6b ⟨rfl, hb⟩; have hg := cells_of hg hb hgl; have hgl := Nat.lt_of_lt_of_le hgl hb.size; have hW := hW.below hb; have hbel := hbel.trans (hb.mono hbel.size); have q0 := cell_heap hg 0; have q1 := cell_heap hg 1; have q2 := cell_heap hg 2; have q3 := cell_heap hg 3; have q4 := cell_heap hg 4; have q5 := cell_heap hg 5; have q6 := cell_heap hg 6; have q7 := cell_heap hg 7)
      clear hg hgl q0 q1 q2 q3 q4 q5 q6 q7
      go_upto_region 14 with (go_at_call 35; refine (CD3 _).mono ?_; rintro e w17 ⟨rfl, hb⟩; have hW := hW.below hb; have hbel := hbel.trans (hb.mono hbel.size))
      refine wp_nameE _ (fun W18 hX => ?_)
      have hb := (show Below w17.heap.size w17 W18 by rw [hX]; exact Below.alloc (Below.refl _ _) (Nat.le_refl _) _)
      have hx3 : W18.heap[w17.heap.size]? = some (.cells #[.string sp2, .int .i64 sc2, .string dp2, .int .i64 dc2, .int .i64 sq2, .string da2, .int .i64 th2, .int .i64 ta2] 45 (0, 0)) := by
        rw [hX]; show (w17.heap.push _)[w17.heap.size]? = _; rw [Array.getElem?_push_size]
      have hW := hW.below hb
      have hbel := hbel.trans (hb.mono hbel.size)
      clear hX
      have r0 := cell_heap hx3 0
      have r1 := cell_heap hx3 1
      have r2 := cell_heap hx3 2
      have r3 := cell_heap hx3 3
      have r4 := cell_heap hx3 4
      have r5 := cell_heap hx3 5
      have r6 := cell_heap hx3 6
      have r7 := cell_heap hx3 7
      have hxl := (Array.getElem?_eq_some_iff.1 hx3).1
      go_wp2_with (first | (go_at_call 33; refine (CEx _).mono ?_; rintro e w20 ⟨rfl, hb⟩; have hx3 := cells_of hx3 hb hxl; have hxl := Nat.lt_of_lt_of_le hxl hb.size; have r0 := cell_heap hx3 0; have r1 := cell_heap hx3 1; have r2 := cell_heap hx3 2; have r3 := cell_heap hx3 3; have r4 := cell_heap hx3 4; have r5 := cell_heap hx3 5; have r6 := cell_heap hx3 6; have r7 := cell_heap hx3 7; have hW := hW.below hb; have hbel := hbel.trans (hb.mono hbel.size)) | (go_at_call 37; refine (CMx _).mono ?_; rintro e w21 ⟨rfl, hb⟩; have hx3 := cells_of hx3 hb hxl; have hxl := Nat.lt_of_lt_of_le hxl hb.size; have r0 := cell_heap hx3 0; have r1 := cell_heap hx3 1; have r2 := cell_heap hx3 2; have r3 := cell_heap hx3 3; have r4 := cell_heap hx3 4; have r5 := cell_heap hx3 5; have r6 := cell_heap hx3 6; have r7 := cell_heap hx3 7; have hW := hW.below hb; have hbel := hbel.trans (hb.mono hbel.size)))
      go_ret
      exact ⟨rfl, hbel⟩
    · have hz : (decPk v).1 = PkT.zero := decP_err (by rw [show decP pkP mayT PkT.zero v = decPk v from rfl, hx]; exact hf)
      rw [hx] at hz
      simp only [PkT.zero, Prod.mk.injEq] at hz
      obtain ⟨⟨rfl, rfl⟩, ⟨rfl, rfl⟩, rfl, rfl, rfl, rfl⟩ := hz
      simp only [PkT.row] at CD3
      have hf0 : (f == 0) = false := beq_eq_false_iff_ne.2 hf
      clear hx
      go_upto_region 6 with (go_at_call 33; refine (CE _).mono ?_; rintro e w5 ⟨rfl, hb⟩; have hg := cells_of hg hb hgl; have hgl := Nat.lt_of_lt_of_le hgl hb.size; have hW := hW.below hb; have hbel := hbel.trans (hb.mono hbel.size); have q0 := cell_heap hg 0; have q1 := cell_heap hg 1; have q2 := cell_heap hg 2; have q3 := cell_heap hg 3; have q4 := cell_heap hg 4; have q5 := cell_heap hg 5; have q6 := cell_heap hg 6; have q7 := cell_heap hg 7)
      go_upto_region 13 with (go_at_call 37; refine (CM _).mono ?_; rintro e w6b ⟨rfl, hb⟩; have hg := cells_of hg hb hgl; have hgl := Nat.lt_of_lt_of_le hgl hb.size; have hW := hW.below hb; have hbel := hbel.trans (hb.mono hbel.size); have q0 := cell_heap hg 0; have q1 := cell_heap hg 1; have q2 := cell_heap hg 2; have q3 := cell_heap hg 3; have q4 := cell_heap hg 4; have q5 := cell_heap hg 5; have q6 := cell_heap hg 6; have q7 := cell_heap hg 7)
      clear hg hgl q0 q1 q2 q3 q4 q5 q6 q7
      go_upto_region 14 with (go_at_call 35; refine (CD3 _).mono ?_; rintro e w17 ⟨rfl, hb⟩; have hW := hW.below hb; have hbel := hbel.trans (hb.mono hbel.size))
      refine wp_nameE _ (fun W18 hX => ?_)
      have hb := (show Below w17.heap.size w17 W18 by rw [hX]; exact Below.alloc (Below.refl _ _) (Nat.le_refl _) _)
      have hx3 : W18.heap[w17.heap.size]? = some (.cells #[.string ⟨#[]⟩, .int .i64 0, .string ⟨#[]⟩, .int .i64 0, .int .i64 0, .string ⟨#[]⟩, .int .i64 0, .int .i64 0] 45 (0, 0)) := by
        rw [hX]; show (w17.heap.push _)[w17.heap.size]? = _; rw [Array.getElem?_push_size]
      have hW := hW.below hb
      have hbel := hbel.trans (hb.mono hbel.size)
      clear hX
      have r0 := cell_heap hx3 0
      have r1 := cell_heap hx3 1
      have r2 := cell_heap hx3 2
      have r3 := cell_heap hx3 3
      have r4 := cell_heap hx3 4
      have r5 := cell_heap hx3 5
      have r6 := cell_heap hx3 6
      have r7 := cell_heap hx3 7
      have hxl := (Array.getElem?_eq_some_iff.1 hx3).1
      go_wp2
      go_ret
      exact ⟨rfl, hbel⟩
  · simp only [hM] at CM
    have hMT : mayT ((sp, sc), (dp, dc), sq, da, th, ta) = true := hM
    have HM := Lib.hid hM
    obtain ⟨S, hS⟩ : ∃ S : ByteArray, (⟨(pkB ((sp, sc), (dp, dc), sq, da, th, ta)).toArray⟩ : ByteArray) = S := ⟨_, rfl⟩
    have hSl : S.data.toList = pkB ((sp, sc), (dp, dc), sq, da, th, ta) := by rw [← hS]
    have hlen := pkB_len hMT
    have hSz : S.size ≤ 288 := by rw [← str_len, hSl]; exact hlen
    have henc : encPk ((sp, sc), (dp, dc), sq, da, th, ta) = .tuple #[.string S, .int .i64 0] := by unfold encPk; rw [hMT, ← hS]; rfl
    simp only [henc] at CE
    have CD1 := fun W => decodePk_any S W (by omega)
    have CD2 := fun W => decodePk_any (S ++ ⟨#[120]⟩) W (by have h : (S ++ ⟨#[120]⟩ : ByteArray).size = S.size + 1 := (by rw [ByteArray.size_append]; rfl); omega)
    simp only [decPk_enc hMT hSl] at CD1
    simp only [decPk_more hMT (show (S ++ ⟨#[120]⟩ : ByteArray).data.toList = pkB ((sp, sc), (dp, dc), sq, da, th, ta) ++ (120 :: []) by rw [← hSl]; simp)] at CD2
    simp only [PkT.row, PkT.zero] at CD1 CD2
    have hcl := comF_len da th ta
    have hEQ : ∀ W : World, (Op.equalIn 10000 26 (.agg (hrow (comF da th ta))) (.agg (hrow (comF da th ta)))).run Tryd.prog W = .ok true W := fun W => by
      rw [run_equal_hash W 26 _ _ hcl hcl Tryd.underlying26 Tryd.underlying5 (by kernel_rfl)]; simp
    have hcat : ¬ 9223372036854775807 < S.size + 1 := by omega
    clear hS hSl henc hlen hM hMT
    by_cases hf : f = 0
    · subst hf
      have hb2 := decPk_back (v := v) (by rw [hx])
      rw [hx] at hb2
      simp only at hb2
      obtain ⟨hMx, hEx⟩ := hb2
      have hxs := Pk.mayK_bounds hMx
      simp only at hxs
      have hx1s : sp2.size ≤ maxLen := by unfold maxLen; omega
      have hx2s : dp2.size ≤ maxLen := by unfold maxLen; omega
      have CEx := fun W => encodePk_any sp2 sc2 dp2 dc2 sq2 da2 th2 ta2 W hx1s hx2s
      have CMx := fun W => mayPk_any sp2 sc2 dp2 dc2 sq2 da2 th2 ta2 W hx1s hx2s
      have hencx : encPk ((sp2, sc2), (dp2, dc2), sq2, da2, th2, ta2) = .tuple #[.string v, .int .i64 0] := by
        unfold encPk; rw [hMx, hEx]; rfl
      simp only [hencx] at CEx
      have hMx' : mayK sp2 sc2 dp2 dc2 sq2 da2 th2 ta2 = true := hMx
      simp only [hMx'] at CMx
      simp only [PkT.row] at CD3
      clear hencx hMx hMx' hEx hx hxs hx1s hx2s
      go_upto_region 6 with (go_at_call 33; refine (CE _).mono ?_; rintro e w5 ⟨rfl, hb⟩; have hg := cells_of hg hb hgl; have hgl := Nat.lt_of_lt_of_le hgl hb.size; have hW := hW.below hb; have hbel := hbel.trans (hb.mono hbel.size); have q0 := cell_heap hg 0; have q1 := cell_heap hg 1; have q2 := cell_heap hg 2; have q3 := cell_heap hg 3; have q4 := cell_heap hg 4; have q5 := cell_heap hg 5; have q6 := cell_heap hg 6; have q7 := cell_heap hg 7)
      go_upto_region 9 with (go_at_call 37; refine (CM _).mono ?_; rintro e w6b ⟨rfl, hb⟩; have hg := cells_of hg hb hgl; have hgl := Nat.lt_of_lt_of_le hgl hb.size; have hW := hW.below hb; have hbel := hbel.trans (hb.mono hbel.size); have q0 := cell_heap hg 0; have q1 := cell_heap hg 1; have q2 := cell_heap hg 2; have q3 := cell_heap hg 3; have q4 := cell_heap hg 4; have q5 := cell_heap hg 5; have q6 := cell_heap hg 6; have q7 := cell_heap hg 7)
      go_upto_region 10 with (go_at_call 35; refine (CD1 _).mono ?_; rintro e w9 ⟨rfl, hb⟩; have hg := cells_of hg hb hgl; have hgl := Nat.lt_of_lt_of_le hgl hb.size; have hW := hW.below hb; have hbel := hbel.trans (hb.mono hbel.size); have q0 := cell_heap hg 0; have q1 := cell_heap hg 1; have q2 := cell_heap hg 2; have q3 := cell_heap hg 3; have q4 := cell_heap hg 4; have q5 := cell_heap hg 5; have q6 := cell_heap hg 6; have q7 := cell_heap hg 7)
      refine wp_nameE _ (fun W10 hX => ?_)
      have hb := (show Below w9.heap.size w9 W10 by rw [hX]; exact Below.alloc (Below.refl _ _) (Nat.le_refl _) _)
      have hx1 : W10.heap[w9.heap.size]? = some (.cells #[.string sp, .int .i64 sc, .string dp, .int .i64 dc, .int .i64 sq, .string da, .int .i64 th, .int .i64 ta] 45 (0, 0)) := by
        rw [hX]; show (w9.heap.push _)[w9.heap.size]? = _; rw [Array.getElem?_push_size]
      have hg := cells_of hg hb hgl
      have hgl := Nat.lt_of_lt_of_le hgl hb.size
      have hW := hW.below hb
      have hbel := hbel.trans (hb.mono hbel.size)
      have q0 := cell_heap hg 0
      have q1 := cell_heap hg 1
      have q2 := cell_heap hg 2
      have q3 := cell_heap hg 3
      have q4 := cell_heap hg 4
      have q5 := cell_heap hg 5
      have q6 := cell_heap hg 6
      have q7 := cell_heap hg 7
      clear hX
      go_upto_region 11 with (go_at_call 35; refine (CD2 _).mono ?_; rintro e w10 ⟨rfl, hb⟩; have hx1 := cells_of hx1 hb (Array.getElem?_eq_some_iff.1 hx1).1; have hg := cells_of hg hb hgl; have hgl := Nat.lt_of_lt_of_le hgl hb.size; have hW := hW.below hb; have hbel := hbel.trans (hb.mono hbel.size); have q0 := cell_heap hg 0; have q1 := cell_heap hg 1; have q2 := cell_heap hg 2; have q3 := cell_heap hg 3; have q4 := cell_heap hg 4; have q5 := cell_heap hg 5; have q6 := cell_heap hg 6; have q7 := cell_heap hg 7)
      refine wp_nameE _ (fun W11 hX => ?_)
      have hb := (show Below w10.heap.size w10 W11 by rw [hX]; exact Below.alloc (Below.refl _ _) (Nat.le_refl _) _)
      have hx2 : W11.heap[w10.heap.size]? = some (.cells #[.string ⟨#[]⟩, .int .i64 0, .string ⟨#[]⟩, .int .i64 0, .int .i64 0, .string ⟨#[]⟩, .int .i64 0, .int .i64 0] 45 (0, 0)) := by
        rw [hX]; show (w10.heap.push _)[w10.heap.size]? = _; rw [Array.getElem?_push_size]
      have hx1 := cells_of hx1 hb (Array.getElem?_eq_some_iff.1 hx1).1
      have hg := cells_of hg hb hgl
      have hgl := Nat.lt_of_lt_of_le hgl hb.size
      have hW := hW.below hb
      have hbel := hbel.trans (hb.mono hbel.size)
      have q0 := cell_heap hg 0
      have q1 := cell_heap hg 1
      have q2 := cell_heap hg 2
      have q3 := cell_heap hg 3
      have q4 := cell_heap hg 4
      have q5 := cell_heap hg 5
      have q6 := cell_heap hg 6
      have q7 := cell_heap hg 7
      clear hX
      have r0 := cell_heap hx1 0
      have r1 := cell_heap hx1 1
      have r2 := cell_heap hx1 2
      have r3 := cell_heap hx1 3
      have r4 := cell_heap hx1 4
      have r5 := cell_heap hx1 5
      have r6 := cell_heap hx1 6
      have r7 := cell_heap hx1 7
      have hx1l := (Array.getElem?_eq_some_iff.1 hx1).1
      have hWn : ∀ n : Beyond W11, SW n.x := fun n => hW.below n.h
      obtain ⟨hcb, hfb⟩ := beyond_cells (W := W11)
      refine wp_region_below (by kernel_rfl) (by kernel_rfl) ?_
      repeat (go_big_quiet_step (first | (go_at_call 40; exact quiet_below (CSm _)) | (go_at_call 30; exact quiet_below (commit_any sp sc dp dc sq da th ta _ (hWn _) HM.out))))
      intro w12 hw12
      have hb := beyond_below hw12
      have hW := hW.below hb
      have hbel := hbel.trans (hb.mono hbel.size)
      clear hcb hfb hw12 hWn hx1 hx2 hx1l r0 r1 r2 r3 r4 r5 r6 r7
      clear hg hgl q0 q1 q2 q3 q4 q5 q6 q7
      go_upto_region 13 with fail
      go_upto_region 14 with (go_at_call 35; refine (CD3 _).mono ?_; rintro e w17 ⟨rfl, hb⟩; have hW := hW.below hb; have hbel := hbel.trans (hb.mono hbel.size))
      refine wp_nameE _ (fun W18 hX => ?_)
      have hb := (show Below w17.heap.size w17 W18 by rw [hX]; exact Below.alloc (Below.refl _ _) (Nat.le_refl _) _)
      have hx3 : W18.heap[w17.heap.size]? = some (.cells #[.string sp2, .int .i64 sc2, .string dp2, .int .i64 dc2, .int .i64 sq2, .string da2, .int .i64 th2, .int .i64 ta2] 45 (0, 0)) := by
        rw [hX]; show (w17.heap.push _)[w17.heap.size]? = _; rw [Array.getElem?_push_size]
      have hW := hW.below hb
      have hbel := hbel.trans (hb.mono hbel.size)
      clear hX
      have r0 := cell_heap hx3 0
      have r1 := cell_heap hx3 1
      have r2 := cell_heap hx3 2
      have r3 := cell_heap hx3 3
      have r4 := cell_heap hx3 4
      have r5 := cell_heap hx3 5
      have r6 := cell_heap hx3 6
      have r7 := cell_heap hx3 7
      have hxl := (Array.getElem?_eq_some_iff.1 hx3).1
      go_wp2_with (first | (go_at_call 33; refine (CEx _).mono ?_; rintro e w20 ⟨rfl, hb⟩; have hx3 := cells_of hx3 hb hxl; have hxl := Nat.lt_of_lt_of_le hxl hb.size; have r0 := cell_heap hx3 0; have r1 := cell_heap hx3 1; have r2 := cell_heap hx3 2; have r3 := cell_heap hx3 3; have r4 := cell_heap hx3 4; have r5 := cell_heap hx3 5; have r6 := cell_heap hx3 6; have r7 := cell_heap hx3 7; have hW := hW.below hb; have hbel := hbel.trans (hb.mono hbel.size)) | (go_at_call 37; refine (CMx _).mono ?_; rintro e w21 ⟨rfl, hb⟩; have hx3 := cells_of hx3 hb hxl; have hxl := Nat.lt_of_lt_of_le hxl hb.size; have r0 := cell_heap hx3 0; have r1 := cell_heap hx3 1; have r2 := cell_heap hx3 2; have r3 := cell_heap hx3 3; have r4 := cell_heap hx3 4; have r5 := cell_heap hx3 5; have r6 := cell_heap hx3 6; have r7 := cell_heap hx3 7; have hW := hW.below hb; have hbel := hbel.trans (hb.mono hbel.size)))
      go_ret
      exact ⟨rfl, hbel⟩
    · have hz : (decPk v).1 = PkT.zero := decP_err (by rw [show decP pkP mayT PkT.zero v = decPk v from rfl, hx]; exact hf)
      rw [hx] at hz
      simp only [PkT.zero, Prod.mk.injEq] at hz
      obtain ⟨⟨rfl, rfl⟩, ⟨rfl, rfl⟩, rfl, rfl, rfl, rfl⟩ := hz
      simp only [PkT.row] at CD3
      have hf0 : (f == 0) = false := beq_eq_false_iff_ne.2 hf
      clear hx
      go_upto_region 6 with (go_at_call 33; refine (CE _).mono ?_; rintro e w5 ⟨rfl, hb⟩; have hg := cells_of hg hb hgl; have hgl := Nat.lt_of_lt_of_le hgl hb.size; have hW := hW.below hb; have hbel := hbel.trans (hb.mono hbel.size); have q0 := cell_heap hg 0; have q1 := cell_heap hg 1; have q2 := cell_heap hg 2; have q3 := cell_heap hg 3; have q4 := cell_heap hg 4; have q5 := cell_heap hg 5; have q6 := cell_heap hg 6; have q7 := cell_heap hg 7)
      go_upto_region 9 with (go_at_call 37; refine (CM _).mono ?_; rintro e w6b ⟨rfl, hb⟩; have hg := cells_of hg hb hgl; have hgl := Nat.lt_of_lt_of_le hgl hb.size; have hW := hW.below hb; have hbel := hbel.trans (hb.mono hbel.size); have q0 := cell_heap hg 0; have q1 := cell_heap hg 1; have q2 := cell_heap hg 2; have q3 := cell_heap hg 3; have q4 := cell_heap hg 4; have q5 := cell_heap hg 5; have q6 := cell_heap hg 6; have q7 := cell_heap hg 7)
      go_upto_region 10 with (go_at_call 35; refine (CD1 _).mono ?_; rintro e w9 ⟨rfl, hb⟩; have hg := cells_of hg hb hgl; have hgl := Nat.lt_of_lt_of_le hgl hb.size; have hW := hW.below hb; have hbel := hbel.trans (hb.mono hbel.size); have q0 := cell_heap hg 0; have q1 := cell_heap hg 1; have q2 := cell_heap hg 2; have q3 := cell_heap hg 3; have q4 := cell_heap hg 4; have q5 := cell_heap hg 5; have q6 := cell_heap hg 6; have q7 := cell_heap hg 7)
      refine wp_nameE _ (fun W10 hX => ?_)
      have hb := (show Below w9.heap.size w9 W10 by rw [hX]; exact Below.alloc (Below.refl _ _) (Nat.le_refl _) _)
      have hx1 : W10.heap[w9.heap.size]? = some (.cells #[.string sp, .int .i64 sc, .string dp, .int .i64 dc, .int .i64 sq, .string da, .int .i64 th, .int .i64 ta] 45 (0, 0)) := by
        rw [hX]; show (w9.heap.push _)[w9.heap.size]? = _; rw [Array.getElem?_push_size]
      have hg := cells_of hg hb hgl
      have hgl := Nat.lt_of_lt_of_le hgl hb.size
      have hW := hW.below hb
      have hbel := hbel.trans (hb.mono hbel.size)
      have q0 := cell_heap hg 0
      have q1 := cell_heap hg 1
      have q2 := cell_heap hg 2
      have q3 := cell_heap hg 3
      have q4 := cell_heap hg 4
      have q5 := cell_heap hg 5
      have q6 := cell_heap hg 6
      have q7 := cell_heap hg 7
      clear hX
      go_upto_region 11 with (go_at_call 35; refine (CD2 _).mono ?_; rintro e w10 ⟨rfl, hb⟩; have hx1 := cells_of hx1 hb (Array.getElem?_eq_some_iff.1 hx1).1; have hg := cells_of hg hb hgl; have hgl := Nat.lt_of_lt_of_le hgl hb.size; have hW := hW.below hb; have hbel := hbel.trans (hb.mono hbel.size); have q0 := cell_heap hg 0; have q1 := cell_heap hg 1; have q2 := cell_heap hg 2; have q3 := cell_heap hg 3; have q4 := cell_heap hg 4; have q5 := cell_heap hg 5; have q6 := cell_heap hg 6; have q7 := cell_heap hg 7)
      refine wp_nameE _ (fun W11 hX => ?_)
      have hb := (show Below w10.heap.size w10 W11 by rw [hX]; exact Below.alloc (Below.refl _ _) (Nat.le_refl _) _)
      have hx2 : W11.heap[w10.heap.size]? = some (.cells #[.string ⟨#[]⟩, .int .i64 0, .string ⟨#[]⟩, .int .i64 0, .int .i64 0, .string ⟨#[]⟩, .int .i64 0, .int .i64 0] 45 (0, 0)) := by
        rw [hX]; show (w10.heap.push _)[w10.heap.size]? = _; rw [Array.getElem?_push_size]
      have hx1 := cells_of hx1 hb (Array.getElem?_eq_some_iff.1 hx1).1
      have hg := cells_of hg hb hgl
      have hgl := Nat.lt_of_lt_of_le hgl hb.size
      have hW := hW.below hb
      have hbel := hbel.trans (hb.mono hbel.size)
      have q0 := cell_heap hg 0
      have q1 := cell_heap hg 1
      have q2 := cell_heap hg 2
      have q3 := cell_heap hg 3
      have q4 := cell_heap hg 4
      have q5 := cell_heap hg 5
      have q6 := cell_heap hg 6
      have q7 := cell_heap hg 7
      clear hX
      have r0 := cell_heap hx1 0
      have r1 := cell_heap hx1 1
      have r2 := cell_heap hx1 2
      have r3 := cell_heap hx1 3
      have r4 := cell_heap hx1 4
      have r5 := cell_heap hx1 5
      have r6 := cell_heap hx1 6
      have r7 := cell_heap hx1 7
      have hx1l := (Array.getElem?_eq_some_iff.1 hx1).1
      have hWn : ∀ n : Beyond W11, SW n.x := fun n => hW.below n.h
      obtain ⟨hcb, hfb⟩ := beyond_cells (W := W11)
      refine wp_region_below (by kernel_rfl) (by kernel_rfl) ?_
      repeat (go_big_quiet_step (first | (go_at_call 40; exact quiet_below (CSm _)) | (go_at_call 30; exact quiet_below (commit_any sp sc dp dc sq da th ta _ (hWn _) HM.out))))
      intro w12 hw12
      have hb := beyond_below hw12
      have hW := hW.below hb
      have hbel := hbel.trans (hb.mono hbel.size)
      clear hcb hfb hw12 hWn hx1 hx2 hx1l r0 r1 r2 r3 r4 r5 r6 r7
      clear hg hgl q0 q1 q2 q3 q4 q5 q6 q7
      go_upto_region 13 with fail
      go_upto_region 14 with (go_at_call 35; refine (CD3 _).mono ?_; rintro e w17 ⟨rfl, hb⟩; have hW := hW.below hb; have hbel := hbel.trans (hb.mono hbel.size))
      refine wp_nameE _ (fun W18 hX => ?_)
      have hb := (show Below w17.heap.size w17 W18 by rw [hX]; exact Below.alloc (Below.refl _ _) (Nat.le_refl _) _)
      have hx3 : W18.heap[w17.heap.size]? = some (.cells #[.string ⟨#[]⟩, .int .i64 0, .string ⟨#[]⟩, .int .i64 0, .int .i64 0, .string ⟨#[]⟩, .int .i64 0, .int .i64 0] 45 (0, 0)) := by
        rw [hX]; show (w17.heap.push _)[w17.heap.size]? = _; rw [Array.getElem?_push_size]
      have hW := hW.below hb
      have hbel := hbel.trans (hb.mono hbel.size)
      clear hX
      have r0 := cell_heap hx3 0
      have r1 := cell_heap hx3 1
      have r2 := cell_heap hx3 2
      have r3 := cell_heap hx3 3
      have r4 := cell_heap hx3 4
      have r5 := cell_heap hx3 5
      have r6 := cell_heap hx3 6
      have r7 := cell_heap hx3 7
      have hxl := (Array.getElem?_eq_some_iff.1 hx3).1
      go_wp2
      go_ret
      exact ⟨rfl, hbel⟩
end Go.Proofs.YtfblbholkhdldaaDoor
