/- Lists of pairs that are set in whatever order; two stores side by side. -/
import Derived.Test.YtpledhipdiephaaDoorSt11
import Derived.Test.YtpledhipdiephaaDoorT6
import Derived.Laws.StructEq
import Derived.WalkKit
import Derived.ProofKit
import Derived.Handy
import Derived.Below
import Derived.Lib.Hide
import Derived.IntWalk
import Derived.Outline
import Derived.WalkLawsBesides
import Derived.WalkSpells
namespace Go.Proofs.YtpledhipdiephaaDoor
open Go.RowKit
attribute [local go_sem] strV
set_option linter.unusedVariables false
theorem place_all {l : List Pr} {key : ByteArray} (h : ∀ p ∈ l, lessK p.k key = true) : placeL l key = l.length := by
  unfold placeL
  refine List.findIdx_eq_length.2 (fun p hp => ?_)
  rw [h p hp]; rfl
theorem found_none {l : List Pr} {key : ByteArray} (h : ∀ p ∈ l, lessK p.k key = true) : foundL l key = false := by
  unfold foundL
  rw [place_all h, List.getElem?_eq_none (Nat.le_refl _)]
theorem setS_next {R : List Pr} (hg : goodL R = true) {k : Nat} (hk : k < R.length) : setS (R.take k) R[k].k R[k].v = R.take (k + 1) := by
  have h1 : ∀ p ∈ R.take k, lessK p.k R[k].k = true := fun p hp => by
    obtain ⟨j, hj, rfl⟩ := List.getElem_of_mem hp
    rw [List.length_take] at hj
    rw [List.getElem_take]
    exact goodL_sorted hg j k _ _ (by omega) (List.getElem?_eq_getElem (by omega)) (List.getElem?_eq_getElem hk)
  have h2 : fitsB R[k].k R[k].v = true := good_fit hg (List.getElem_mem hk)
  unfold setS riseStep
  simp only [h2, if_true]
  unfold setL
  have e : R.take (k + 1) = R.take k ++ [R[k]] := List.take_succ_eq_append_getElem hk
  rw [place_all h1, found_none h1, List.take_of_length_le (Nat.le_refl _), List.drop_of_length_le (by simp), List.append_nil]
  exact e.symm
theorem good_take {R : List Pr} (hg : goodL R = true) (k : Nat) : goodL (R.take k) = true := by
  obtain ⟨h1, h2⟩ := good_iff.1 hg
  exact good_iff.2 ⟨fun p hp => h1 p (List.mem_of_mem_take hp), h2.sublist (List.take_sublist _ _)⟩
section
variable {P : Program} (w : World)
theorem run_part_int {e : TypeId} {k : IntKind} (he : P.underlying e = some (.int k)) (xs : Array Value) (i : Nat) (v : Value) (hv : xs[i]? = some v) : (part e xs i).run P w = .ok v w := by
  simp [part, isAgg, run_underlying he, hv]
theorem run_equalIn_bytes (d : Nat) (t e : TypeId) (n : Nat) (k : IntKind) (xs ys : Array Value) (f g : Nat → Int) (ht : P.underlying t = some (.array n e)) (he : P.underlying e = some (.int k)) (hsz : (P.info? e).map (·.size) = some 1)
    (hx : ∀ i, i < n → xs[i]? = some (.int k (f i))) (hy : ∀ i, i < n → ys[i]? = some (.int k (g i))) :
    (Op.equalIn (d + 2) t (.agg xs) (.agg ys)).run P w = .ok ((List.range' 0 n).all fun i => f i == g i) w := by
  obtain ⟨j, hj, hjs⟩ := Option.map_eq_some_iff.1 hsz
  have hso : (sizeOf e).run P w = .ok 1 w := by simp [sizeOf, typeInfo, hj, hjs]
  rw [Op.equalIn]
  simp only [Sem.run_bind, run_underlying ht, Result.andThen_ok, hso]
  rw [Std.Legacy.Range.forIn_eq_forIn_range']
  simp only [Std.Legacy.Range.size, Nat.sub_zero, Nat.add_sub_cancel, Nat.div_one]
  have hlt : ∀ i ∈ List.range' 0 n, i < n := fun i hi => by simpa using hi
  generalize List.range' 0 n = l at hlt ⊢
  induction l with
  | nil => simp
  | cons i l ih =>
    have hi := hlt i (List.mem_cons_self ..)
    have ihl := ih (fun j hj => hlt j (List.mem_cons_of_mem _ hj))
    simp only [List.forIn_cons, Sem.run_bind, Nat.mul_one, run_part_int w he xs i _ (hx i hi), run_part_int w he ys i _ (hy i hi), Result.andThen_ok, run_equalIn_int w d e k k (f i) (g i) he, Sem.run_ite, Sem.run_pure] at ihl ⊢
    cases hfg : (f i == g i)
    · simp [hfg]
    · simp [hfg]
      simpa using ihl
theorem all_bytes : ∀ (n : Nat) (l m : List UInt8), l.length = n → m.length = n → ((List.range' 0 n).all fun i => (((l.getD i 0).toNat : Nat) : Int) == (((m.getD i 0).toNat : Nat) : Int)) = (l == m) := by
  intro n l m hl hm
  rw [Bool.eq_iff_iff]
  simp only [List.all_eq_true, List.mem_range', beq_iff_eq, Int.natCast_inj]
  constructor
  · intro h
    apply List.ext_getElem (by omega)
    intro i h1 h2
    have := h i ⟨i, by omega, by omega⟩
    simp only [List.getD, List.getElem?_eq_getElem h1, List.getElem?_eq_getElem h2, Option.getD_some] at this
    exact UInt8.toNat_inj.1 this
  · rintro rfl i _
    rfl
theorem run_equal_hash (t : TypeId) {e : TypeId} (l m : List UInt8) (hl : l.length = 32) (hm : m.length = 32) (ht : P.underlying t = some (.array 32 e)) (he : P.underlying e = some (.int .u8)) (hsz : (P.info? e).map (·.size) = some 1) :
    (Op.equalIn 10000 t (.agg (hrow l)) (.agg (hrow m))).run P w = .ok (l == m) w := by
  rw [run_equalIn_bytes w 9998 t e 32 .u8 (hrow l) (hrow m) (fun i => ((l.getD i 0).toNat : Nat)) (fun i => ((m.getD i 0).toNat : Nat)) ht he hsz (fun i hi => hrow_at l i (by omega)) (fun i hi => hrow_at m i (by omega)), all_bytes 32 l m hl hm]
end
theorem setS_sub {l : List Pr} (h : goodL l = true) {k v : ByteArray} {p : Pr} (hp : p ∈ setS l k v) : p.k = k ∨ p ∈ l := by
  unfold setS riseStep at hp
  split at hp
  · rcases (mem_setL h).1 hp with h1 | h1
    · left; rw [h1]
    · exact .inr h1.1
  · exact .inr hp
def KeysIn (b L : List Pr) : Prop := ∀ p ∈ b, ∃ q ∈ L, q.k = p.k
def Cov (b L : List Pr) (i : Nat) : Prop := ∀ j (hj : j < L.length), i ≤ j → L[j] ∈ b
theorem keysIn_set {b L : List Pr} (hb : goodL b = true) (h : KeysIn b L) {q : Pr} (hq : q ∈ L) (v : ByteArray) : KeysIn (setS b q.k v) L := fun p hp => by
  rcases setS_sub hb hp with h1 | h1
  · exact ⟨q, hq, h1.symm⟩
  · exact h p h1
theorem cov_set {b L : List Pr} (hb : goodL b = true) (hL : goodL L = true) {i : Nat} (hi : i < L.length) (h : Cov b L (i + 1)) : Cov (setS b L[i].k L[i].v) L i := fun j hj hij => by
  rw [mem_setS hb (good_fit hL (List.getElem_mem hi))]
  by_cases e : j = i
  · subst e; left; rfl
  · right
    refine ⟨h j hj (by omega), fun q => ?_⟩
    have := List.pairwise_iff_getElem.1 (good_pair hL) i j hi hj (by omega)
    rw [q, lessK_irr] at this; cases this
theorem cov_end {b L : List Pr} (hb : goodL b = true) (hL : goodL L = true) (h : Cov b L 0) (hk : KeysIn b L) : b = L := by
  refine good_ext hb hL (fun p => ⟨fun hp => ?_, fun hp => ?_⟩)
  · obtain ⟨q, hq, e⟩ := hk p hp
    obtain ⟨j, hj, rfl⟩ := List.getElem_of_mem hq
    rw [← key_inj hb (h j hj (Nat.zero_le _)) hp e]; exact hq
  · obtain ⟨j, hj, rfl⟩ := List.getElem_of_mem hp
    exact h j hj (Nat.zero_le _)
theorem zz_out {L : List Pr} (hL : goodL L = true) {k v : ByteArray} (hf : fitsB k v = true) (hn : foundL L k = false) : dropL (setS L k v) k = L := by
  have hne : ∀ p ∈ L, p.k ≠ k := fun p hp e => by
    obtain ⟨i, hi, rfl⟩ := List.getElem_of_mem hp
    rw [found_of hL hi e] at hn; cases hn
  refine good_ext (dropL_good (setS_good hL k v) k) hL (fun p => ?_)
  rw [mem_dropL (setS_good hL k v), mem_setS hL hf]
  constructor
  · rintro ⟨h1 | h1, h2⟩
    · exact absurd (by rw [h1]) h2
    · exact h1.1
  · exact fun h1 => ⟨.inr ⟨h1, hne p h1⟩, hne p h1⟩
theorem getV_at {L : List Pr} {k : ByteArray} (hf : foundL L k = true) : (⟨k, getV L k⟩ : Pr) ∈ L := by
  obtain ⟨hi, hk⟩ := found_at hf
  have h1 : getV L k = L[placeL L k].v := by unfold getV; rw [if_pos hf, List.getElem?_eq_getElem hi]
  have h9 : ∀ p : Pr, p.k = k → (⟨k, p.v⟩ : Pr) = p := fun p e => by subst e; rfl
  have h2 : (⟨k, getV L k⟩ : Pr) = L[placeL L k] := by rw [h1]; exact h9 _ hk
  rw [h2]; exact List.getElem_mem hi
theorem zz_in {L : List Pr} (hL : goodL L = true) {k v : ByteArray} (hf : fitsB k v = true) (hn : foundL L k = true) : setS (setS L k v) k (getV L k) = L := by
  have hm := getV_at hn
  have hg := setS_good hL k v
  refine good_ext (setS_good hg k _) hL (fun p => ?_)
  rw [mem_setS hg (good_fit hL hm), mem_setS hL hf]
  constructor
  · rintro (h1 | ⟨h1 | h1, h2⟩)
    · rw [h1]; exact hm
    · exact absurd (by rw [h1]) h2
    · exact h1.1
  · intro h1
    by_cases e : p.k = k
    · left
      exact key_inj hL h1 hm e
    · exact .inr ⟨.inr ⟨h1, e⟩, e⟩
theorem fits_zz : fitsB ⟨#[122, 122]⟩ ⟨#[122]⟩ = true := by decide +kernel
/-- Two stores side by side, above B. -/
def Two (B : Nat) (w : World) (g1 : Nat) (l1 : List Pr) (g2 : Nat) (l2 : List Pr) : Prop := ∃ r1 r2, StB w g1 r1 l1 ∧ StB w g2 r2 l2 ∧ g1 ≠ g2 ∧ (r1 = none ∨ r2 = none ∨ r1 ≠ r2) ∧ B ≤ g1 ∧ B ≤ g2 ∧ B ≤ w.heap.size
theorem Two.symm {B g1 g2 : Nat} {w : World} {l1 l2 : List Pr} (h : Two B w g1 l1 g2 l2) : Two B w g2 l2 g1 l1 := by
  obtain ⟨r1, r2, h1, h2, h3, h4, h5, h6, h7⟩ := h
  refine ⟨r2, r1, h2, h1, h3.symm, ?_, h6, h5, h7⟩
  rcases h4 with h4 | h4 | h4
  · exact .inr (.inl h4)
  · exact .inl h4
  · exact .inr (.inr h4.symm)
theorem Two.kept {B g1 g2 : Nat} {w w' : World} {l1 l2 : List Pr} (h : Two B w g1 l1 g2 l2) (hb : Below w.heap.size w w') : Two B w' g1 l1 g2 l2 := by
  obtain ⟨r1, r2, h1, h2, h3, h4, h5, h6, h7⟩ := h
  exact ⟨r1, r2, h1.kept hb, h2.kept hb, h3, h4, h5, h6, Nat.le_trans h7 hb.size⟩
theorem Two.set {B g1 g2 : Nat} {w w' : World} {l1 l2 l1' : List Pr} {r1 r2 r1' : Option Nat} (h1 : StB w g1 r1 l1) (h2 : StB w g2 r2 l2) (h3 : g1 ≠ g2) (h4 : r1 = none ∨ r2 = none ∨ r1 ≠ r2) (h5 : B ≤ g1) (h6 : B ≤ g2) (h7 : B ≤ w.heap.size)
    (k1 : StB w' g1 r1' l1') (k2 : Fr w w' g1 r1) (k3 : r1' = r1 ∨ ∃ k, r1' = some k ∧ w.heap.size ≤ k) : Two B w' g1 l1' g2 l2 ∧ Below B w w' := by
  have hne1 : r1 ≠ some g2 := fun e => by
    obtain ⟨_, _, R, hR⟩ := h1.row g2 e
    obtain ⟨_, a, c, hg, _⟩ := h2
    rw [hg] at hR
    simp only [Option.some.injEq, Obj.cells.injEq] at hR
    exact absurd hR.2.1 (by decide)
  have hne2 : r2 ≠ some g1 := fun e => by
    obtain ⟨_, _, R, hR⟩ := h2.row g1 e
    obtain ⟨_, a, c, hg, _⟩ := h1
    rw [hg] at hR
    simp only [Option.some.injEq, Obj.cells.injEq] at hR
    exact absurd hR.2.1 (by decide)
  have q2 : StB w' g2 r2 l2 := by
    refine h2.other k2 h3.symm hne1 hne2 ?_
    rcases h4 with h4 | h4 | h4
    · cases hr : r2 with
      | none => exact .inl rfl
      | some k => right; rw [h4]; simp
    · exact .inl h4
    · exact .inr h4.symm
  have hb : Below B w w' := k2.below h5 (fun k e => Nat.le_trans h5 (h1.row k e).1) h7
  refine ⟨⟨r1', r2, k1, q2, h3, ?_, h5, h6, Nat.le_trans h7 k2.size⟩, hb⟩
  rcases k3 with k3 | ⟨k, k3, k4⟩
  · rw [k3]; exact h4
  · cases hr : r2 with
    | none => exact .inr (.inl rfl)
    | some j =>
      have := (h2.row j hr).2.1
      right; right; rw [k3]; intro e; have := Option.some.inj e; omega
theorem Two.setL_any {B g1 g2 : Nat} {w : World} {l1 l2 : List Pr} (h : Two B w g1 l1 g2 l2) (hn : l1.length ≤ 100000) (key val : ByteArray) :
    Calls Tryd.prog 13 #[.pointer (some ⟨g1, 0, none⟩), .string key, .string val] w fun e w' => e = .returned (.int .i64 (setE key val)) ∧ Two B w' g1 (setS l1 key val) g2 l2 ∧ Below B w w' := by
  obtain ⟨r1, r2, h1, h2, h3, h4, h5, h6, h7⟩ := h
  refine (setB_any g1 r1 l1 key val w h1 hn).mono ?_
  rintro e w' ⟨rfl, r1', k1, k2, k3⟩
  exact ⟨rfl, Two.set h1 h2 h3 h4 h5 h6 h7 k1 k2 k3⟩
theorem Two.dropL_any {B g1 g2 : Nat} {w : World} {l1 l2 : List Pr} (h : Two B w g1 l1 g2 l2) (hn : l1.length ≤ 100000) (key : ByteArray) :
    Calls Tryd.prog 15 #[.pointer (some ⟨g1, 0, none⟩), .string key] w fun e w' => e = .returned (.bool (foundL l1 key)) ∧ Two B w' g1 (dropL l1 key) g2 l2 ∧ Below B w w' := by
  obtain ⟨r1, r2, h1, h2, h3, h4, h5, h6, h7⟩ := h
  refine (dropB_any g1 r1 l1 key w h1 hn).mono ?_
  rintro e w' ⟨rfl, k1, k2⟩
  exact ⟨rfl, Two.set h1 h2 h3 h4 h5 h6 h7 k1 k2 (.inl rfl)⟩
theorem Two.left {B g1 g2 : Nat} {w : World} {l1 l2 : List Pr} (h : Two B w g1 l1 g2 l2) : StAt w g1 l1 := by
  obtain ⟨r1, r2, h1, _⟩ := h
  exact h1.at
theorem Two.good {B g1 g2 : Nat} {w : World} {l1 l2 : List Pr} (h : Two B w g1 l1 g2 l2) : goodL l1 = true := h.left.1
theorem Two.new {w w1 w2 : World} (h1 : w1.heap[w.heap.size]? = some (.cells #[.slice none 0 0] 93 (0, 0))) (hb1 : Below w.heap.size w w1) (h2 : w2.heap[w1.heap.size]? = some (.cells #[.slice none 0 0] 93 (0, 0))) (hb2 : Below w1.heap.size w1 w2) : Two w.heap.size w2 w.heap.size [] w1.heap.size [] := by
  have hl := row_lt h1
  exact ⟨none, none, StB.new (cells_of h1 hb2 hl), StB.new h2, by omega, .inl rfl, Nat.le_refl _, hb1.size, Nat.le_trans hb1.size hb2.size⟩
theorem root_eql (l : List Pr) : ∃ R : H32, rootL l = hrow R.1 ∧ ∀ W : World, (Op.equalIn 10000 35 (.agg (hrow R.1)) (.agg (hrow R.1))).run Tryd.prog W = .ok true W := by
  obtain ⟨R, hR⟩ := rootL_of l
  exact ⟨R, hR, fun W => by rw [run_equal_hash W 35 R.1 R.1 R.2 R.2 Tryd.underlying35 Tryd.underlying5 (by kernel_rfl)]; simp⟩
end Go.Proofs.YtpledhipdiephaaDoor
