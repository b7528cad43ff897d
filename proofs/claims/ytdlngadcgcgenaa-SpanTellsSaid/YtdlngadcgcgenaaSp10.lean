/- The document's HasNum, AddNum. -/
import Derived.Test.YtdlngadcgcgenaaSp9
import Derived.BigRegion
import Derived.RegionTactic
import Derived.BigQuiet
import Derived.Deep.QuietTactic
import Derived.Deep.MidRow
import Derived.Deep.RegionLaw
import Derived.Deep.CutRange
import Derived.LoopTactic
import Derived.BigFrame
import Derived.Laws.OwnMore
import Derived.WalkKit
import Derived.ProofKit
import Derived.Handy
import Derived.Below
import Derived.Lib.Hide
import Derived.IntWalk
import Derived.Outline
import Derived.WalkLawsBesides
import Derived.WalkSpells
namespace Go.Proofs.Ytdlngadcgcgenaa
open Go.RowKit
attribute [local go_sem] strV
set_option linter.unusedVariables false
theorem Try.infoDr : (Try.prog.info? 70).map (fun i => (i.zero, i.size, i.bytes)) = some (some (.agg #[.int .i64 0, .int .i64 0]), 2, 16) := by kernel_rfl
set_option maxRecDepth 100000 in
set_option maxHeartbeats 6400000 in
theorem refHas_any (a : Option Addr) (n cap : Nat) (l : List (Int × Int)) (v : Int) (w : World) (hr : RowAt w a (l.flatMap rgL)) (hn : l.length = n) (hm : n ≤ 1000000) :
    Calls Try.prog 22 #[.slice a n cap, .int .i64 v] w fun e w' => e = .returned (.bool (hasR l v)) ∧ Below w.heap.size w w' := by
  have HN := Lib.hid hn
  obtain ⟨r, hr9⟩ : ∃ r, hasR l v = r := ⟨_, rfl⟩
  rw [hr9]
  have HR := Lib.hid hr9
  clear hr9 hn
  go_enter Try.func22, Try.ntmps22
  go_upto_region 2 with fail
  go_loopw [5] (fun i wr => ∃ k : Nat, k ≤ n ∧ i = .int .i64 k ∧ Hid (hasR (l.take k) v = false) ∧ wr = w) (fun i _ => n - (intOf i).toNat)
  case atStart => exact ⟨0, Nat.zero_le _, rfl, Lib.hid rfl, rfl⟩
  case round =>
    obtain ⟨k, hk, rfl, HA, rfl⟩ := hrel
    by_cases hlt : k < n
    rotate_left
    · have d9 : decide ((k : Int) < (n : Int)) = false := decide_eq_false (by omega)
      have d9n : decide (k < n) = false := decide_eq_false hlt
      obtain rfl : r = false := by rw [← HR.out, ← HA.out, List.take_of_length_le (by rw [HN.out]; omega)]
      go_wp2
      go_ret
      exact ⟨by first | rfl | simp, Below.refl _ _⟩
    have d9 : decide ((k : Int) < (n : Int)) = true := decide_eq_true (by omega)
    have d9n : decide (k < n) = true := decide_eq_true hlt
    have hkl : k < l.length := by rw [HN.out]; exact hlt
    have htk := hasR_take hkl v
    have hbd := fun h => hasR_bad hkl (v := v) h
    obtain ⟨b1, o1, rfl, hb1, hg1⟩ := rg_range hr hkl
    obtain ⟨⟨x, y⟩, hxy⟩ : ∃ p, l[k] = p := ⟨_, rfl⟩
    rw [hxy] at hg1 htk hbd
    rw [HA.out] at htk
    unfold inR at htk hbd
    simp only [] at htk hbd
    have k0 : wr.cell? ⟨b1, o1 + k * 2, none⟩ = some (.int .i64 x) := hg1 0 _ rfl
    have k1 : wr.cell? ⟨b1, o1 + k * 2 + 1, none⟩ = some (.int .i64 y) := hg1 1 _ rfl
    obtain ⟨p, hp⟩ : ∃ p, decide (x ≤ v) = p := ⟨_, rfl⟩
    obtain ⟨q, hq⟩ : ∃ q, decide (v ≤ y) = q := ⟨_, rfl⟩
    rw [hp, hq] at htk hbd
    have HTK := Lib.hid htk
    have HBD := Lib.hid hbd
    have n0 : (0 : Int) ≤ (k : Int) := by omega
    have n1 : (k : Int) < (n : Int) := by omega
    have n2 : ((k : Nat) : Int).toNat = k := by omega
    clear hxy hg1 htk hbd
    cases p
    · go_wp2
      go_roundw
      case rel => exact ⟨k + 1, by omega, by go_num, Lib.hid (by rw [HTK.out]; rfl), by first | exact trivial | rfl⟩
      case measure => (simp [intOf]) <;> omega
    · cases q
      · go_wp2
        go_roundw
        case rel => exact ⟨k + 1, by omega, by go_num, Lib.hid (by rw [HTK.out]; rfl), by first | exact trivial | rfl⟩
        case measure => (simp [intOf]) <;> omega
      · obtain rfl : r = true := by rw [← HR.out]; exact HBD.out rfl
        go_wp2
        go_ret
        exact ⟨by first | rfl | simp, Below.refl _ _⟩
/-- What AddNum makes of A, n, C (n lies between). -/
def midR (C : List (Int × Int)) (n : Int) : (Int × Int) × List (Int × Int) := match C with | c :: C' => if c.1 = n + 1 then ((n, c.2), C') else ((n, n), C) | [] => ((n, n), [])
theorem addS_mid {A C : List (Int × Int)} {n p : Int} (hg : goodFrom p (A ++ C) = true) (hA : ∀ r ∈ A, r.2 < n) (hC : ∀ r ∈ C, n < r.1) :
    addS (A ++ C) (n, n) = (match A.getLast? with | some a => if a.2 = n - 1 then A.dropLast ++ [(a.1, (midR C n).1.2)] ++ (midR C n).2 else A ++ [(midR C n).1] ++ (midR C n).2 | none => [(midR C n).1] ++ (midR C n).2) := by
  have tail : ∀ (m1 : Int) (p' : Int), m1 ≤ n → goodFrom p' C = true → addS C (m1, n) = (m1, (midR C n).1.2) :: (midR C n).2 := by
    intro m1 p' hm hgc
    cases C with
    | nil => rfl
    | cons c C' =>
      obtain ⟨g1, g2⟩ := goodFrom_cons.1 hgc
      have hc := hC c (List.mem_cons_self ..)
      show (if c.2 + 1 < m1 then _ else if n + 1 < c.1 then (m1, n) :: c :: C' else addS C' (min m1 c.1, max n c.2)) = _
      rw [if_neg (by omega)]
      unfold midR
      simp only []
      by_cases h1 : c.1 = n + 1
      · rw [if_neg (by omega), if_pos h1]
        have e : (min m1 c.1, max n c.2) = (m1, c.2) := by rw [Prod.mk.injEq]; omega
        rw [e]
        cases C' with
        | nil => rfl
        | cons d D =>
          obtain ⟨g3, g4⟩ := goodFrom_cons.1 g2
          show (if d.2 + 1 < m1 then _ else if c.2 + 1 < d.1 then (m1, c.2) :: d :: D else _) = _
          rw [if_neg (by omega), if_pos (by omega)]
      · rw [if_pos (by omega), if_neg h1]
  have gC : ∃ p', goodFrom p' C = true := by
    have := goodFrom_drop hg A.length
    rw [List.drop_left] at this
    exact this
  obtain ⟨p', hgC⟩ := gC
  rcases List.eq_nil_or_concat A with rfl | ⟨A', a, hAc⟩
  · show addS C (n, n) = _
    rw [tail n p' (Int.le_refl _) hgC]
    have e : ((n, (midR C n).1.2) : Int × Int) = (midR C n).1 := by
      unfold midR; cases C with
      | nil => rfl
      | cons c C' => simp only []; split <;> rfl
    rw [e]; rfl
  · rw [List.concat_eq_append] at hAc
    subst hAc
    have ha := hA a (by simp)
    have hg2 : goodFrom p (A' ++ [a]) = true := by
      have key : ∀ (X Y : List (Int × Int)) (q : Int), goodFrom q (X ++ Y) = true → goodFrom q X = true := by
        intro X
        induction X with
        | nil => intro Y q _; rfl
        | cons x X ih => intro Y q h; obtain ⟨h1, h2⟩ := goodFrom_cons.1 h; exact goodFrom_cons.2 ⟨h1, ih Y _ h2⟩
      exact key _ C _ hg
    obtain ⟨gA, ga1, ga2, ga3, ga4, ga5⟩ := goodFrom_app.1 hg2
    have hA' : ∀ r ∈ A', r.2 + 1 < n := by
      have key : ∀ (X : List (Int × Int)) (q : Int) (t : Int × Int), goodFrom q X = true → X.getLast? = some t → ∀ r ∈ X, r.2 ≤ t.2 := by
        intro X
        induction X with
        | nil => intro q t _ _ r hr; cases hr
        | cons x X ih =>
          intro q t h ht r hr
          obtain ⟨h1, h2⟩ := goodFrom_cons.1 h
          cases X with
          | nil => simp at ht hr; subst ht hr; exact Int.le_refl _
          | cons y Y =>
            rw [List.getLast?_cons_cons] at ht
            rcases List.mem_cons.1 hr with rfl | hr
            · have := ih _ t h2 ht y (List.mem_cons_self ..)
              have := (goodFrom_cons.1 h2).1
              omega
            · exact ih _ t h2 ht r hr
      intro r hr
      cases hl : A'.getLast? with
      | none => rw [List.getLast?_eq_none_iff] at hl; rw [hl] at hr; cases hr
      | some t =>
        have := key A' p t gA hl r hr
        have := ga5 t hl
        omega
    rw [List.append_assoc, addS_app hA', List.getLast?_append, List.dropLast_concat]
    simp only [List.getLast?_singleton, Option.some_or]
    show A' ++ (if a.2 + 1 < n then a :: addS C (n, n) else if n + 1 < a.1 then _ else addS C (min n a.1, max n a.2)) = _
    by_cases h1 : a.2 = n - 1
    · rw [if_neg (by omega), if_neg (by omega), if_pos h1]
      have e : (min n a.1, max n a.2) = (a.1, n) := by rw [Prod.mk.injEq]; omega
      rw [e, tail a.1 p' (by omega) hgC]
      simp
    · rw [if_pos (by omega), if_neg h1, tail n p' (Int.le_refl _) hgC]
      have e : ((n, (midR C n).1.2) : Int × Int) = (midR C n).1 := by
        unfold midR; cases C with
        | nil => rfl
        | cons c C' => simp only []; split <;> rfl
      rw [e]
      simp
theorem own_prefix {w : World} {base : Nat} {e : TypeId} {size n c g : Nat} {xs : List Value} (h : w.ownsRow base e size (.slice (some ⟨g, 0, none⟩) n c) n xs) {p : Nat} (hp : p ≤ n) : w.ownsRow base e size (.slice (some ⟨g, 0, none⟩) p c) p (xs.take (p * size)) := by
  have hl := h.1
  rcases h.2 with ⟨h1, _⟩ | ⟨g', cap', cur, h1, h2, h3, h4, h5, h6, h7⟩
  · cases h1
  · simp only [Value.slice.injEq, Option.some.injEq, Addr.mk.injEq, and_true, true_and] at h1
    obtain ⟨rfl, rfl⟩ := h1
    have hps : p * size ≤ n * size := Nat.mul_le_mul_right _ hp
    exact ⟨by rw [List.length_take]; omega, .inr ⟨g, c, cur, rfl, h2, h3, by omega, h5, h6, by rw [← h7, List.take_take]; congr 1; omega⟩⟩
theorem step_append_ownS {P : Program} {w : World} {ops : Array Oper} {o : Oper} {a : Act} {K : Act → World → Prop} {Q : Exit → Act → World → Prop} {E : Prop} (hgd : o.guard = none) (s x : Operand) (t : TypeId)
    (ho : o.op = .call { callee := .builtin .append, args := #[s, x], argTypes := #[t, t] })
    (base : Nat) (e : TypeId) (i : TypeInfo) (z : Value) (size bytes : Nat) (ht : P.underlying t = some (.slice e)) (hi : P.info? e = some i) (hz : i.zero = some z)
    (hsize : i.size = size) (hby : i.bytes = bytes) (hzs : z.cells.size = size) (hsz : 0 < size)
    (v : Value) (n : Nat) (xs : List Value) (hs : a.eval s = v) (hown : w.ownsRow base e size v n xs)
    (ad : Addr) (m c : Nat) (news : List Value) (hx : a.eval x = .slice (some ad) m c) (hl : news.length = m * size) (hnews : ∀ j u, news[j]? = some u → w.cell? (ad.add j) = some u) (h1 : ∀ u ∈ news, u.oneCell' = true)
    (h63 : n + m ≤ maxLen) (hbytes : (n + m) * bytes ≤ 140737488355328) (hbase : base ≤ w.heap.size)
    (h : ∀ v' w', w'.ownsRow base e size v' (n + m) (xs ++ news) → w.grownBy w' v.ownBlock → K (a.put o.dst v') w') :
    if Region.wanted o (yielded ops a.tmps) = true then Oper.wp P o a w K Q else E := by
  have hw : Region.wanted o (yielded ops a.tmps) = true := by simp [Region.wanted, hgd]
  rw [if_pos hw]
  exact wp_append_own w s x t ho base e i z size bytes ht hi hz hsize hby hzs hsz v n xs hs hown ad m c news hx hl hnews h1 h63 hbytes hbase (fun v' w' q1 q2 _ => h v' w' q1 q2)
theorem step_append_ownA {P : Program} {w : World} {ops : Array Oper} {o : Oper} {a : Act} {K : Act → World → Prop} {Q : Exit → Act → World → Prop} {E : Prop} (hgd : o.guard = none) (s x : Operand) (t : TypeId)
    (ho : o.op = .call { callee := .builtin .append, args := #[s, x], argTypes := #[t, t] })
    (base : Nat) (e : TypeId) (i : TypeInfo) (z : Value) (size bytes : Nat) (ht : P.underlying t = some (.slice e)) (hi : P.info? e = some i) (hz : i.zero = some z)
    (hsize : i.size = size) (hby : i.bytes = bytes) (hzs : z.cells.size = size) (hsz : 0 < size)
    (v : Value) (n : Nat) (xs : List Value) (hs : a.eval s = v) (hown : w.ownsRow base e size v n xs)
    (ao : Option Addr) (m c : Nat) (news : List Value) (hx : a.eval x = .slice ao m c) (hnone : ao = none → m = 0 ∧ c = 0) (hl : news.length = m * size) (hnews : ∀ ad, ao = some ad → ∀ j u, news[j]? = some u → w.cell? (ad.add j) = some u) (h1 : ∀ u ∈ news, u.oneCell' = true)
    (h63 : n + m ≤ maxLen) (hbytes : (n + m) * bytes ≤ 140737488355328) (hbase : base ≤ w.heap.size)
    (h : ∀ v' w', w'.ownsRow base e size v' (n + m) (xs ++ news) → w.grownBy w' v.ownBlock → K (a.put o.dst v') w') :
    if Region.wanted o (yielded ops a.tmps) = true then Oper.wp P o a w K Q else E := by
  cases ao with
  | some ad => exact step_append_ownS hgd s x t ho base e i z size bytes ht hi hz hsize hby hzs hsz v n xs hs hown ad m c news hx hl (hnews ad rfl) h1 h63 hbytes hbase h
  | none =>
    obtain ⟨rfl, rfl⟩ := hnone rfl
    have hn9 : news = [] := List.eq_nil_of_length_eq_zero (by simpa using hl)
    subst hn9
    have hw : Region.wanted o (yielded ops a.tmps) = true := by simp [Region.wanted, hgd]
    rw [if_pos hw]
    have hrun := run_append_owned_none (P := P) w base t o.type e i size ht hi _ n xs hown
    unfold Oper.wp
    simp [execOp, ho, resolve, invoke, builtin, hs, hx, hrun, Result.andThen]
    exact h v w (by simpa using hown) (World.grownBy.refl _ _)

theorem good_ge {l : List (Int × Int)} : ∀ {p : Int}, goodFrom p l = true → ∀ s ∈ l, p + 2 ≤ s.1 ∧ s.1 ≤ s.2 := by
  induction l with
  | nil => intro p _ s hs; cases hs
  | cons r l ih =>
    intro p h s hs
    obtain ⟨h1, h2⟩ := goodFrom_cons.1 h
    rcases List.mem_cons.1 hs with rfl | hs
    · exact ⟨h1.2.2.2, h1.2.1⟩
    · have := ih h2 s hs
      omega
theorem rg_after {l : List (Int × Int)} {x : Int} {k : Nat} (hg : goodR l = true) (hh : hasR l x = false) (hC : ∀ r, l[k]? = some r → ¬ r.2 < x) : ∀ r ∈ l.drop k, x < r.1 := by
  intro r hr
  obtain ⟨q, hq⟩ := goodFrom_drop hg k
  rcases Nat.lt_or_ge k l.length with hk | hk
  · rw [List.drop_eq_getElem_cons hk] at hr hq
    obtain ⟨h1, h2⟩ := goodFrom_cons.1 hq
    have h3 := hC _ (List.getElem?_eq_getElem hk)
    have h4 : x < l[k].1 := by
      rcases Int.lt_or_le x l[k].1 with h | h
      · exact h
      · exfalso
        have := hasR_bad hk (v := x) (by unfold inR; simp; omega)
        rw [hh] at this; cases this
    rcases List.mem_cons.1 hr with rfl | hr
    · exact h4
    · have := good_ge h2 r hr
      omega
  · rw [List.drop_of_length_le hk] at hr; cases hr
theorem addR_had {l : List (Int × Int)} {x : Int} (hg : goodR l = true) (hh : hasR l x = true) : addR l x = l := by
  refine good_unique (addR_good hg) hg (fun v => ?_)
  have h := addR_has (n := x) hg v
  cases hv : hasR l v
  · cases hv2 : hasR (addR l x) v
    · rfl
    · rcases h.1 hv2 with h1 | ⟨rfl, _⟩
      · rw [hv] at h1; cases h1
      · rw [hh] at hv; cases hv
  · exact h.2 (.inl hv)
theorem addR_out {l : List (Int × Int)} {x : Int} (h : insideB x = false) : addR l x = l := by unfold addR; rw [if_neg (by rw [h]; exact Bool.false_ne_true)]
theorem addR_in {l : List (Int × Int)} {x : Int} (h : insideB x = true) : addR l x = addS l (x, x) := by unfold addR; rw [if_pos h]
theorem own_formA {w : World} {base : Nat} {e : TypeId} {size n n' c : Nat} {ad : Addr} {xs : List Value} (h : w.ownsRow base e size (.slice (some ad) n c) n' xs) : ∃ g, ad = ⟨g, 0, none⟩ := by
  rcases h.2 with ⟨h1, _⟩ | ⟨g, cap, cur, h1, _⟩
  · cases h1
  · simp only [Value.slice.injEq, Option.some.injEq] at h1
    exact ⟨g, h1.1⟩
theorem rg_take {l : List (Int × Int)} (k : Nat) : ∀ (j : Nat) (u : Value), ((l.take k).flatMap rgL)[j]? = some u → (l.flatMap rgL)[j]? = some u := by
  intro j u h
  conv => lhs; rw [← List.take_append_drop k l, List.flatMap_append]
  rw [List.getElem?_append_left (List.getElem?_eq_some_iff.1 h).1]; exact h
theorem rg_drop {l : List (Int × Int)} {k : Nat} (hk : k ≤ l.length) : ∀ (j : Nat) (u : Value), ((l.drop k).flatMap rgL)[j]? = some u → (l.flatMap rgL)[k * 2 + j]? = some u := by
  intro j u h
  conv => lhs; rw [← List.take_append_drop k l, List.flatMap_append]
  have e : ((l.take k).flatMap rgL).length = k * 2 := by rw [rg_flat_len, List.length_take, Nat.min_eq_left hk]
  rw [List.getElem?_append_right (by omega), e, show k * 2 + j - k * 2 = j by omega]; exact h
theorem row_getR {w : World} {b off : Nat} {vs : List Value} (h : RowAt w (some ⟨b, off, none⟩) vs) {j : Nat} {u : Value} (hu : vs[j]? = some u) : w.cell? ⟨b, off + j, none⟩ = some u := by
  have hj := (List.getElem?_eq_some_iff.1 hu).1
  rcases h with rfl | ⟨b1, o1, e, _, hc⟩
  · simp at hj
  · simp only [Option.some.injEq, Addr.mk.injEq, and_true] at e
    obtain ⟨rfl, rfl⟩ := e
    rw [hc j hj]; exact hu
theorem rg_take_at {w : World} {b : Nat} {l : List (Int × Int)} (h : RowAt w (some ⟨b, 0, none⟩) (l.flatMap rgL)) (k : Nat) : ∀ ad, some (⟨b, 0, none⟩ : Addr) = some ad → ∀ j u, ((l.take k).flatMap rgL)[j]? = some u → w.cell? (ad.add j) = some u := by
  intro ad e j u hu
  obtain rfl := Option.some.inj e
  rw [Addr.add_lit]; exact row_getR h (rg_take k j u hu)
theorem rg_drop_at {w : World} {b : Nat} {l : List (Int × Int)} (h : RowAt w (some ⟨b, 0, none⟩) (l.flatMap rgL)) {k : Nat} (hk : k ≤ l.length) : ∀ ad, some (⟨b, k * 2, none⟩ : Addr) = some ad → ∀ j u, ((l.drop k).flatMap rgL)[j]? = some u → w.cell? (ad.add j) = some u := by
  intro ad e j u hu
  obtain rfl := Option.some.inj e
  have := row_getR h (rg_drop hk j u hu)
  rw [Addr.add_lit]
  rwa [Nat.zero_add] at this
theorem rg_mid_eq {A C : List (Int × Int)} {x : Int} : (A.flatMap rgL ++ [Value.int .i64 x, Value.int .i64 x]) ++ C.flatMap rgL = (A ++ (x, x) :: C).flatMap rgL := by
  rw [List.flatMap_append, List.flatMap_cons, List.append_assoc]; rfl
theorem two_kept {w w1 : World} {x y : Value} {t : TypeId} (hg : (w.alloc (.cells #[x, y] t)).grownBy w1 none) : ∀ j u, [x, y][j]? = some u → w1.cell? ((⟨w.heap.size, 0, none⟩ : Addr).add j) = some u := by
  intro j u hj
  rw [Addr.add_lit, Nat.zero_add, cell_heap (grown_at hg (heap_push w #[x, y] t) (by simp)) j]
  simpa using hj
theorem some_fun {w : World} {ad0 : Addr} {vs : List Value} (h : ∀ j u, vs[j]? = some u → w.cell? (ad0.add j) = some u) : ∀ ad, some ad0 = some ad → ∀ j u, vs[j]? = some u → w.cell? (ad.add j) = some u := by
  intro ad e
  obtain rfl := Option.some.inj e
  exact h
theorem rg_takeN (L : List (Int × Int)) {p : Nat} (hp : p ≤ L.length) : (L.flatMap rgL).take (p * 2) = (L.take p).flatMap rgL := by
  conv => lhs; rw [← List.take_append_drop p L, List.flatMap_append]
  have e : ((L.take p).flatMap rgL).length = p * 2 := by rw [rg_flat_len, List.length_take, Nat.min_eq_left hp]
  rw [List.take_append_of_le_length (by omega), List.take_of_length_le (by omega)]
theorem rg_own_prefix {w : World} {base : Nat} {e : TypeId} {N c g : Nat} {L : List (Int × Int)} (h : w.ownsRow base e 2 (.slice (some ⟨g, 0, none⟩) N c) N (L.flatMap rgL)) (hL : L.length = N) {p : Nat} (hp : p ≤ N) : w.ownsRow base e 2 (.slice (some ⟨g, 0, none⟩) p c) p ((L.take p).flatMap rgL) := by
  rw [← rg_takeN L (by omega)]
  exact own_prefix h hp
theorem rg_own_row {w : World} {base : Nat} {e : TypeId} {N c g : Nat} {xs : List Value} (h : w.ownsRow base e 2 (.slice (some ⟨g, 0, none⟩) N c) N xs) : RowAt w (some ⟨g, 0, none⟩) xs := by
  obtain ⟨a, cap, hv, hr, _⟩ := own_sliceN h
  simp only [Value.slice.injEq] at hv
  rw [hv.1]; exact hr
theorem rg_setL (A : List (Int × Int)) (r : Int × Int) (C : List (Int × Int)) (y : Int) {q : Nat} (hq : A.length = q) : ((A ++ r :: C).flatMap rgL).set (q * 2 + 1) (.int .i64 y) = (A ++ (r.1, y) :: C).flatMap rgL := by
  have hl := rg_flat_len A
  rw [hq] at hl
  rw [List.flatMap_append, List.flatMap_append, List.set_append_right _ _ (by omega), hl, show q * 2 + 1 - q * 2 = 1 by omega]
  rfl
theorem rg_cellL {w : World} {base : Nat} {e : TypeId} {N c g : Nat} {A C : List (Int × Int)} {r : Int × Int} (h : w.ownsRow base e 2 (.slice (some ⟨g, 0, none⟩) N c) N ((A ++ r :: C).flatMap rgL)) {q : Nat} (hq : A.length = q) :
    w.cell? ⟨g, q * 2, none⟩ = some (.int .i64 r.1) ∧ w.cell? ⟨g, q * 2 + 1, none⟩ = some (.int .i64 r.2) := by
  have hl := rg_flat_len A
  rw [hq] at hl
  have hN := h.1
  rw [rg_flat_len, List.length_append, List.length_cons, hq] at hN
  constructor
  · rw [h.cellAt (q * 2) (by omega), List.flatMap_append, List.getElem?_append_right (by omega), hl, Nat.sub_self]; rfl
  · rw [h.cellAt (q * 2 + 1) (by omega), List.flatMap_append, List.getElem?_append_right (by omega), hl, show q * 2 + 1 - q * 2 = 1 by omega]; rfl
set_option maxRecDepth 100000 in
set_option maxHeartbeats 12800000 in
theorem addNum_any (a : Option Addr) (n cap : Nat) (l : List (Int × Int)) (x : Int) (w : World) (hr : RowAt w a (l.flatMap rgL)) (hn : l.length = n) (hm : n ≤ 100000) (ha : a = none → n = 0 ∧ cap = 0) (hgood : goodR l = true) :
    Calls Try.prog 23 #[.slice a n cap, .int .i64 x] w fun e w' => ∃ v, e = .returned v ∧ w'.ownsRow w.heap.size 70 2 v (addR l x).length ((addR l x).flatMap rgL) ∧ Below w.heap.size w w' := by
  obtain ⟨iR, hiR, hzR, hsR, hbR⟩ := info_parts Try.infoDr
  have HN := Lib.hid hn
  have HGD := Lib.hid hgood
  have HL := Lib.hid (show (l.flatMap rgL).length = n * 2 by rw [rg_flat_len, hn])
  have hnil : ∀ W : World, W.ownsRow w.heap.size 70 2 (.slice none 0 0) 0 [] := fun W => World.ownsRow_nil _ _ _ _
  have CH := fun W (hb : Below w.heap.size w W) => refHas_any a n cap l x W (hr.below hb) HN.out (by omega)
  clear hn hgood
  go_enter Try.func23, Try.ntmps23
  go_upto_region 2 with (at_builtin; refine wpList_append_ownA _ rfl (.const (.slice none 0 0)) (.tmp 7) 36 rfl w.heap.size 70 iR (.agg #[.int .i64 0, .int .i64 0]) 2 16 Try.underlying36 hiR hzR hsR hbR rfl (by decide) _ _ _ rfl (hnil _) (a) n cap (l.flatMap rgL) rfl ha HL.out (row_newsM hr) (rg_ones l) (by unfold maxLen; omega) (by omega) (Nat.le_refl _) ?_; intro v5 w5 hown5 hgr5)
  have hb5 := grown_lowM hgr5 (fun k h => by cases h) (Nat.le_refl _)
  simp only [Nat.zero_add, List.nil_append] at hown5
  obtain ⟨aO, cO, hvO, hrO, hnO, hcO, haO⟩ := own_sliceN hown5
  subst hvO
  clear hgr5
  by_cases hx1 : x < 0
  · have d1 : decide (x < 0) = true := decide_eq_true hx1
    have HO := Lib.hid (addR_out (l := l) (x := x) (by unfold insideB; rw [decide_eq_false (by omega)]; rfl))
    go_wp2
    go_ret
    exact ⟨_, rfl, by rw [HO.out, HN.out]; exact hown5, hb5⟩
  have d1 : decide (x < 0) = false := decide_eq_false hx1
  by_cases hx2 : 72057594037927935 < x
  · have d2 : decide (72057594037927935 < x) = true := decide_eq_true hx2
    have HO := Lib.hid (addR_out (l := l) (x := x) (by unfold insideB maxN; rw [decide_eq_false (p := x ≤ 72057594037927935) (by omega), Bool.and_false]))
    go_wp2
    go_ret
    exact ⟨_, rfl, by rw [HO.out, HN.out]; exact hown5, hb5⟩
  have d2 : decide (72057594037927935 < x) = false := decide_eq_false hx2
  obtain ⟨hh, hhe⟩ : ∃ b, hasR l x = b := ⟨_, rfl⟩
  simp only [hhe] at CH
  have HH := Lib.hid hhe
  clear hhe
  cases hh
  rotate_left
  · have HO := Lib.hid (addR_had HGD.out HH.out)
    go_wp2_with (go_at_call 22; refine (CH _ hb5).mono ?_; rintro e w6 ⟨rfl, hb6⟩)
    go_ret
    exact ⟨_, rfl, by rw [HO.out, HN.out]; exact own_kept9 hown5 hb6, hb5.trans (hb6.mono hb5.size)⟩
  have HI := Lib.hid (addR_in (l := l) (x := x) (by unfold insideB maxN; rw [decide_eq_true (p := 0 ≤ x) (by omega), decide_eq_true (p := x ≤ 72057594037927935) (by omega)]; rfl))
  go_upto_region 4 with (go_at_call 22; refine (CH _ hb5).mono ?_; rintro e w6 ⟨rfl, hb6⟩)
  have hown6 := own_kept9 hown5 hb6
  have hrO6 := hrO.below hb6
  have hbel := hb5.trans (hb6.mono hb5.size)
  clear hown5 hrO hb5 hb6 CH hr
  iterate 8 go_step
  go_cut [6] from 21 to 35 (fun i wc => ∃ k : Nat, k ≤ n ∧ i = .int .i64 k ∧ Hid (∀ r ∈ l.take k, r.2 < x) ∧ Hid (∀ r ∈ l.drop k, x < r.1) ∧ wc = w6)
  case first =>
    go_upto_region 5 with fail
    go_loopw [6] (fun i wr => ∃ k : Nat, k ≤ n ∧ i = .int .i64 k ∧ Hid (∀ r ∈ l.take k, r.2 < x) ∧ wr = w6) (fun i _ => n - (intOf i).toNat)
    case atStart => exact ⟨0, Nat.zero_le _, rfl, Lib.hid (fun r hr => (by cases hr)), rfl⟩
    case round =>
      obtain ⟨k, hk, rfl, HA, rfl⟩ := hrel
      have n0 : (0 : Int) ≤ (k : Int) := by omega
      have n2 : ((k : Nat) : Int).toNat = k := by omega
      by_cases hgo : ∃ r, l[k]? = some r ∧ r.2 < x
      · obtain ⟨⟨p, q⟩, hkm, hq⟩ := hgo
        have hkl : k < l.length := (List.getElem?_eq_some_iff.1 hkm).1
        have hlt : k < n := by rw [← HN.out]; exact hkl
        have hxy : l[k] = (p, q) := (List.getElem?_eq_some_iff.1 hkm).2
        obtain ⟨b1, o1, rfl, hb1, hg1⟩ := rg_range hrO6 hkl
        rw [hxy] at hg1
        have k1 : wr.cell? ⟨b1, o1 + k * 2 + 1, none⟩ = some (.int .i64 q) := hg1 1 _ rfl
        have d9 : decide ((k : Int) < (n : Int)) = true := decide_eq_true (by omega)
        have d9n : decide (k < n) = true := decide_eq_true hlt
        have n1 : (k : Int) < (n : Int) := by omega
        have e1 : decide (q < x) = true := decide_eq_true hq
        have HK := Lib.hid (show ∀ r ∈ l.take (k + 1), r.2 < x by
          intro r hr
          rw [List.take_succ_eq_append_getElem hkl, hxy] at hr
          rcases List.mem_append.1 hr with h | h
          · exact HA.out r h
          · rw [List.mem_singleton.1 h]; exact hq)
        clear hg1 hxy hkm hq
        go_wp2
        go_roundw
        case rel => exact ⟨k + 1, by omega, by go_num, HK, by first | exact trivial | rfl⟩
        case measure => (simp [intOf]) <;> omega
      have HC := Lib.hid (rg_after (k := k) HGD.out HH.out (fun r h1 h2 => hgo ⟨r, h1, h2⟩))
      by_cases hkn : k < n
      · obtain ⟨⟨p, q⟩, hxy⟩ : ∃ p, l[k]? = some p := ⟨_, List.getElem?_eq_getElem (by rw [HN.out]; exact hkn)⟩
        have hkl : k < l.length := by rw [HN.out]; exact hkn
        have hq : ¬ q < x := fun h => hgo ⟨_, hxy, h⟩
        have hxy : l[k] = (p, q) := (List.getElem?_eq_some_iff.1 hxy).2
        obtain ⟨b1, o1, rfl, hb1, hg1⟩ := rg_range hrO6 hkl
        rw [hxy] at hg1
        have k1 : wr.cell? ⟨b1, o1 + k * 2 + 1, none⟩ = some (.int .i64 q) := hg1 1 _ rfl
        have d9 : decide ((k : Int) < (n : Int)) = true := decide_eq_true (by omega)
        have d9n : decide (k < n) = true := decide_eq_true hkn
        have n1 : (k : Int) < (n : Int) := by omega
        have e1 : decide (q < x) = false := decide_eq_false hq
        clear hg1 hxy hgo hq
        go_wp2
        go_meet
        case rel => exact ⟨k, hk, rfl, HA, HC, by first | exact trivial | rfl⟩
      · have d9 : decide ((k : Int) < (n : Int)) = false := decide_eq_false (by omega)
        have d9n : decide (k < n) = false := decide_eq_false hkn
        clear hgo
        go_wp2
        go_meet
        case rel => exact ⟨k, hk, rfl, HA, HC, by first | exact trivial | rfl⟩
  case rest =>
    obtain ⟨k, hk, rfl, HA, HC, rfl⟩ := hcut
    have HT := Lib.hid (show ((l.take k).flatMap rgL).length = k * 2 by rw [rg_flat_len, List.length_take, Nat.min_eq_left (by rw [HN.out]; exact hk)])
    have HD := Lib.hid (show ((l.drop k).flatMap rgL).length = (n - k) * 2 by rw [rg_flat_len, List.length_drop, HN.out])
    have n0 : (0 : Int) ≤ (k : Int) := by omega
    have n1 : (k : Int) ≤ (cO : Int) := by omega
    have n3 : (k : Int) ≤ (n : Int) := by omega
    have n2 : ((k : Nat) : Int).toNat = k := by omega
    unfold maxLen at hcO
    go_upto_region 7 with fail
    go_cut [5] from 36 to 48 (fun v wd => wd.ownsRow w.heap.size 70 2 v (n + 1) ((l.take k ++ (x, x) :: l.drop k).flatMap rgL) ∧ Below w.heap.size w wd)
    case first =>
      cases aO with
      | none =>
        obtain ⟨rfl, rfl⟩ := haO rfl
        obtain rfl : k = 0 := by omega
        have HL0 : Hid (l = []) := Lib.hid (List.eq_nil_of_length_eq_zero HN.out)
        have hbd := (Below.refl wc.heap.size wc).drew
        refine wp_region_any (by kernel_rfl) ?_
        change wpAny _ _ _ _ _ _ _ (World.drew _)
        refine wpAny_take (i := 0) (v := .slice none 0 0) rfl (by kernel_rfl) (by kernel_rfl) (by kernel_rfl) (fun _ _ _ h => h) (Or.inl ⟨by rfl, fun w9 => by (go_simp; try with_reducible rfl)⟩) ?_
        change wpAny _ _ _ _ _ _ (Act.put _ (some 36) _) _; dsimp only [Act.put]; simp only [List.setIfInBounds_toArray, List.set_cons_succ, List.set_cons_zero]
        refine wpAny_take (i := 1) (v := .int .i64 ((0 : Nat) : Int)) rfl (by kernel_rfl) (by kernel_rfl) (by kernel_rfl) (fun _ _ _ h => h) (Or.inl ⟨by rfl, fun w9 => by (go_simp; try with_reducible rfl)⟩) ?_
        change wpAny _ _ _ _ _ _ (Act.put _ (some 37) _) _; dsimp only [Act.put]; simp only [List.setIfInBounds_toArray, List.set_cons_succ, List.set_cons_zero]
        refine wpAny_take (i := 2) (v := .slice (none) (0) (0)) rfl (by kernel_rfl) (by kernel_rfl) (by kernel_rfl) (fun _ _ _ h => h) (Or.inl ⟨by rfl, fun w9 => by (go_simp; try with_reducible rfl)⟩) ?_
        change wpAny _ _ _ _ _ _ (Act.put _ (some 38) _) _; dsimp only [Act.put]; simp only [List.setIfInBounds_toArray, List.set_cons_succ, List.set_cons_zero]
        refine wpAny_take (i := 4) (v := .int .i64 x) rfl (by kernel_rfl) (by kernel_rfl) (by kernel_rfl) (fun _ _ _ h => h) (Or.inl ⟨by rfl, fun w9 => by (go_simp; try with_reducible rfl)⟩) ?_
        change wpAny _ _ _ _ _ _ (Act.put _ (some 40) _) _; dsimp only [Act.put]; simp only [List.setIfInBounds_toArray, List.set_cons_succ, List.set_cons_zero]
        refine wpAny_take (i := 5) (v := .int .i64 x) rfl (by kernel_rfl) (by kernel_rfl) (by kernel_rfl) (fun _ _ _ h => h) (Or.inl ⟨by rfl, fun w9 => by (go_simp; try with_reducible rfl)⟩) ?_
        change wpAny _ _ _ _ _ _ (Act.put _ (some 41) _) _; dsimp only [Act.put]; simp only [List.setIfInBounds_toArray, List.set_cons_succ, List.set_cons_zero]
        refine wpAny_take (i := 6) (v := .agg #[.int .i64 x, .int .i64 x]) rfl (by kernel_rfl) (by kernel_rfl) (by kernel_rfl) (fun _ _ _ h => h) (Or.inl ⟨by rfl, fun w9 => by (go_simp; try with_reducible rfl)⟩) ?_
        change wpAny _ _ _ _ _ _ (Act.put _ (some 42) _) _; dsimp only [Act.put]; simp only [List.setIfInBounds_toArray, List.set_cons_succ, List.set_cons_zero]
        refine wpAny_take (i := 9) (v := .slice none 0 0) rfl (by kernel_rfl) (by kernel_rfl) (by kernel_rfl) (fun _ _ _ h => h) (Or.inl ⟨by rfl, fun w9 => by (go_simp; try with_reducible rfl)⟩) ?_
        change wpAny _ _ _ _ _ _ (Act.put _ (some 45) _) _; dsimp only [Act.put]; simp only [List.setIfInBounds_toArray, List.set_cons_succ, List.set_cons_zero]
        refine wpAny_take (i := 10) (v := .int .i64 ((0 : Nat) : Int)) rfl (by kernel_rfl) (by kernel_rfl) (by kernel_rfl) (fun _ _ _ h => h) (Or.inl ⟨by rfl, fun w9 => by (go_simp; try with_reducible rfl)⟩) ?_
        change wpAny _ _ _ _ _ _ (Act.put _ (some 46) _) _; dsimp only [Act.put]; simp only [List.setIfInBounds_toArray, List.set_cons_succ, List.set_cons_zero]
        refine wpAny_take (i := 11) (v := .slice (none) (0) (0)) rfl (by kernel_rfl) (by kernel_rfl) (by kernel_rfl) (fun _ _ _ h => h) (Or.inl ⟨by rfl, fun w9 => by (go_simp; try with_reducible rfl)⟩) ?_
        change wpAny _ _ _ _ _ _ (Act.put _ (some 47) _) _; dsimp only [Act.put]; simp only [List.setIfInBounds_toArray, List.set_cons_succ, List.set_cons_zero]
        refine wpAny_ready (rs := [3, 7]) (by kernel_rfl) (by simp) ?_
        refine AllReady.cons rfl (fun K hK => ?_) (AllReady.cons rfl (fun K hK => ?_) AllReady.nil)
        · refine step_append_ownA rfl (.const (.slice none 0 0)) (.tmp 38) 36 rfl wc.heap.size 70 iR (.agg #[.int .i64 0, .int .i64 0]) 2 16 Try.underlying36 hiR hzR hsR hbR rfl (by decide) (.slice none 0 0) (0) ([]) (by first | rfl | simp [Act.eval, Act.put]) (World.ownsRow_nil _ _ _ _) (none) (0) (0) ([]) (by first | rfl | simp [Act.eval, Act.put]) (fun _ => ⟨rfl, rfl⟩) rfl (fun ad e => (by  cases e)) (by first | exact rg_ones _ | exact two_one _ _ | exact (fun u hu => (by cases hu))) (by unfold maxLen; omega) (by omega) hbd.size ?_; intro v1 w1 hown1 hgr1; simp only [Nat.zero_add, List.nil_append] at hown1; have hb1 := hbd.trans (grown_lowM hgr1 (fun k h => by cases h) hbd.size)
          refine hK _ _ ?_
          clear hK K
          change wpAny _ _ _ _ _ _ (Act.put _ (some 39) _) _; dsimp only [Act.put]; simp only [List.setIfInBounds_toArray, List.set_cons_succ, List.set_cons_zero]
          refine wpAny_ready (rs := [7]) (by kernel_rfl) (by simp) ?_
          refine AllReady.cons rfl (fun K hK => ?_) AllReady.nil
          go_simp
          refine hK _ _ ?_
          clear hK K
          refine wpAny_ready (rs := [8]) (by kernel_rfl) (by simp) ?_
          refine AllReady.cons rfl (fun K hK => ?_) AllReady.nil
          refine step_append_ownA rfl (.tmp 39) (.tmp 43) 36 rfl wc.heap.size 70 iR (.agg #[.int .i64 0, .int .i64 0]) 2 16 Try.underlying36 hiR hzR hsR hbR rfl (by decide) (v1) (0) ([]) (by first | rfl | simp [Act.eval, Act.put]) (hown1.alloc _) (some ⟨w1.heap.size, 0, none⟩) (1) (1) ([Value.int .i64 x, Value.int .i64 x]) (by first | rfl | simp [Act.eval, Act.put]) (fun h => by cases h) rfl (some_fun (cell_two_new _ _ _ _)) (by first | exact rg_ones _ | exact two_one _ _ | exact (fun u hu => (by cases hu))) (by unfold maxLen; omega) (by omega) (hb1.alloc hb1.size _).size ?_; intro v2 w2 hown2 hgr2; have hb2 := (hb1.alloc hb1.size _).trans (below_grown (hown1.alloc _) hgr2 (hb1.alloc hb1.size _).size)
          refine hK _ _ ?_
          clear hK K
          change wpAny _ _ _ _ _ _ (Act.put _ (some 44) _) _; dsimp only [Act.put]; simp only [List.setIfInBounds_toArray, List.set_cons_succ, List.set_cons_zero]
          refine wpAny_ready (rs := [12]) (by kernel_rfl) (by simp) ?_
          refine AllReady.cons rfl (fun K hK => ?_) AllReady.nil
          refine step_append_ownA rfl (.tmp 44) (.tmp 47) 36 rfl wc.heap.size 70 iR (.agg #[.int .i64 0, .int .i64 0]) 2 16 Try.underlying36 hiR hzR hsR hbR rfl (by decide) (v2) (0 + 1) ([] ++ [Value.int .i64 x, Value.int .i64 x]) (by first | rfl | simp [Act.eval, Act.put]) hown2 (none) (0) (0) ([]) (by first | rfl | simp [Act.eval, Act.put]) (fun _ => ⟨rfl, rfl⟩) rfl (fun ad e => (by  cases e)) (by first | exact rg_ones _ | exact two_one _ _ | exact (fun u hu => (by cases hu))) (by unfold maxLen; omega) (by omega) hb2.size ?_; intro v3 w3 hown3 hgr3; have hb3 := hb2.trans (below_grown hown2 hgr3 hb2.size)
          refine hK _ _ ?_
          clear hK K
          change wpAny _ _ _ _ _ _ (Act.put _ (some 48) _) _; dsimp only [Act.put]; simp only [List.setIfInBounds_toArray, List.set_cons_succ, List.set_cons_zero]
          refine wpAny_take (i := 13) (v := v3) rfl (by kernel_rfl) (by kernel_rfl) (by kernel_rfl) (fun _ _ _ h => h) (Or.inl ⟨by rfl, fun w9 => by (go_simp; try with_reducible rfl)⟩) ?_
          change wpAny _ _ _ _ _ _ (Act.put _ (some 5) _) _; dsimp only [Act.put]; simp only [List.setIfInBounds_toArray, List.set_cons_succ, List.set_cons_zero]
          refine wpAny_done (by kernel_rfl) ?_ _
          go_wp2
          go_meet
          case rel =>
            rw [HL0.out]
            exact ⟨own_lowerM hown3 hbel.size, hbel.trans (hb3.mono hbel.size)⟩
        · go_simp
          refine hK _ _ ?_
          clear hK K
          have hbd2 : Below wc.heap.size wc (wc.alloc (.cells #[.int .i64 x, .int .i64 x] 70)).drew := (Below.alloc (Below.refl _ _) (Nat.le_refl _) _).drew
          refine wpAny_ready (rs := [3]) (by kernel_rfl) (by simp) ?_
          refine AllReady.cons rfl (fun K hK => ?_) AllReady.nil
          refine step_append_ownA rfl (.const (.slice none 0 0)) (.tmp 38) 36 rfl wc.heap.size 70 iR (.agg #[.int .i64 0, .int .i64 0]) 2 16 Try.underlying36 hiR hzR hsR hbR rfl (by decide) (.slice none 0 0) (0) ([]) (by first | rfl | simp [Act.eval, Act.put]) (World.ownsRow_nil _ _ _ _) (none) (0) (0) ([]) (by first | rfl | simp [Act.eval, Act.put]) (fun _ => ⟨rfl, rfl⟩) rfl (fun ad e => (by  cases e)) (by first | exact rg_ones _ | exact two_one _ _ | exact (fun u hu => (by cases hu))) (by unfold maxLen; omega) (by omega) hbd2.size ?_; intro v1 w1 hown1 hgr1; have hN1 := two_kept (w := wc) (x := .int .i64 x) (y := .int .i64 x) (t := 70) ⟨hgr1.os, hgr1.tape, hgr1.output, hgr1.size, hgr1.block⟩; simp only [Nat.zero_add, List.nil_append] at hown1; have hb1 := hbd2.trans (grown_lowM hgr1 (fun k h => by cases h) hbd2.size)
          refine hK _ _ ?_
          clear hK K
          change wpAny _ _ _ _ _ _ (Act.put _ (some 39) _) _; dsimp only [Act.put]; simp only [List.setIfInBounds_toArray, List.set_cons_succ, List.set_cons_zero]
          refine wpAny_ready (rs := [8]) (by kernel_rfl) (by simp) ?_
          refine AllReady.cons rfl (fun K hK => ?_) AllReady.nil
          refine step_append_ownA rfl (.tmp 39) (.tmp 43) 36 rfl wc.heap.size 70 iR (.agg #[.int .i64 0, .int .i64 0]) 2 16 Try.underlying36 hiR hzR hsR hbR rfl (by decide) (v1) (0) ([]) (by first | rfl | simp [Act.eval, Act.put]) hown1 (some ⟨wc.heap.size, 0, none⟩) (1) (1) ([Value.int .i64 x, Value.int .i64 x]) (by first | rfl | simp [Act.eval, Act.put]) (fun h => by cases h) rfl (some_fun hN1) (by first | exact rg_ones _ | exact two_one _ _ | exact (fun u hu => (by cases hu))) (by unfold maxLen; omega) (by omega) hb1.size ?_; intro v2 w2 hown2 hgr2; have hb2 := hb1.trans (below_grown hown1 hgr2 hb1.size)
          refine hK _ _ ?_
          clear hK K
          change wpAny _ _ _ _ _ _ (Act.put _ (some 44) _) _; dsimp only [Act.put]; simp only [List.setIfInBounds_toArray, List.set_cons_succ, List.set_cons_zero]
          refine wpAny_ready (rs := [12]) (by kernel_rfl) (by simp) ?_
          refine AllReady.cons rfl (fun K hK => ?_) AllReady.nil
          refine step_append_ownA rfl (.tmp 44) (.tmp 47) 36 rfl wc.heap.size 70 iR (.agg #[.int .i64 0, .int .i64 0]) 2 16 Try.underlying36 hiR hzR hsR hbR rfl (by decide) (v2) (0 + 1) ([] ++ [Value.int .i64 x, Value.int .i64 x]) (by first | rfl | simp [Act.eval, Act.put]) hown2 (none) (0) (0) ([]) (by first | rfl | simp [Act.eval, Act.put]) (fun _ => ⟨rfl, rfl⟩) rfl (fun ad e => (by  cases e)) (by first | exact rg_ones _ | exact two_one _ _ | exact (fun u hu => (by cases hu))) (by unfold maxLen; omega) (by omega) hb2.size ?_; intro v3 w3 hown3 hgr3; have hb3 := hb2.trans (below_grown hown2 hgr3 hb2.size)
          refine hK _ _ ?_
          clear hK K
          change wpAny _ _ _ _ _ _ (Act.put _ (some 48) _) _; dsimp only [Act.put]; simp only [List.setIfInBounds_toArray, List.set_cons_succ, List.set_cons_zero]
          refine wpAny_take (i := 13) (v := v3) rfl (by kernel_rfl) (by kernel_rfl) (by kernel_rfl) (fun _ _ _ h => h) (Or.inl ⟨by rfl, fun w9 => by (go_simp; try with_reducible rfl)⟩) ?_
          change wpAny _ _ _ _ _ _ (Act.put _ (some 5) _) _; dsimp only [Act.put]; simp only [List.setIfInBounds_toArray, List.set_cons_succ, List.set_cons_zero]
          refine wpAny_done (by kernel_rfl) ?_ _
          go_wp2
          go_meet
          case rel =>
            rw [HL0.out]
            exact ⟨own_lowerM hown3 hbel.size, hbel.trans (hb3.mono hbel.size)⟩
      | some ad =>
        obtain ⟨g, rfl⟩ := own_formA hown6
        have hnT := fun W (hb : Below wc.heap.size wc W) => rg_take_at (hrO6.below hb) k
        by_cases hc : cO = k
        · obtain rfl : n = k := by omega
          subst hc
          have HD0 : Hid (l.drop cO = []) := Lib.hid (List.drop_of_length_le (by rw [HN.out]; omega))
          have hbd := (Below.refl wc.heap.size wc).drew
          refine wp_region_any (by kernel_rfl) ?_
          change wpAny _ _ _ _ _ _ _ (World.drew _)
          refine wpAny_take (i := 0) (v := .slice (some ⟨g, 0, none⟩) cO cO) rfl (by kernel_rfl) (by kernel_rfl) (by kernel_rfl) (fun _ _ _ h => h) (Or.inl ⟨by rfl, fun w9 => by (go_simp; try with_reducible rfl)⟩) ?_
          change wpAny _ _ _ _ _ _ (Act.put _ (some 36) _) _; dsimp only [Act.put]; simp only [List.setIfInBounds_toArray, List.set_cons_succ, List.set_cons_zero]
          refine wpAny_take (i := 1) (v := .int .i64 (cO : Int)) rfl (by kernel_rfl) (by kernel_rfl) (by kernel_rfl) (fun _ _ _ h => h) (Or.inl ⟨by rfl, fun w9 => by (go_simp; try with_reducible rfl)⟩) ?_
          change wpAny _ _ _ _ _ _ (Act.put _ (some 37) _) _; dsimp only [Act.put]; simp only [List.setIfInBounds_toArray, List.set_cons_succ, List.set_cons_zero]
          refine wpAny_take (i := 2) (v := .slice (some ⟨g, 0, none⟩) (cO) (cO)) rfl (by kernel_rfl) (by kernel_rfl) (by kernel_rfl) (fun _ _ _ h => h) (Or.inl ⟨by rfl, fun w9 => by (go_simp; try with_reducible rfl)⟩) ?_
          change wpAny _ _ _ _ _ _ (Act.put _ (some 38) _) _; dsimp only [Act.put]; simp only [List.setIfInBounds_toArray, List.set_cons_succ, List.set_cons_zero]
          refine wpAny_take (i := 4) (v := .int .i64 x) rfl (by kernel_rfl) (by kernel_rfl) (by kernel_rfl) (fun _ _ _ h => h) (Or.inl ⟨by rfl, fun w9 => by (go_simp; try with_reducible rfl)⟩) ?_
          change wpAny _ _ _ _ _ _ (Act.put _ (some 40) _) _; dsimp only [Act.put]; simp only [List.setIfInBounds_toArray, List.set_cons_succ, List.set_cons_zero]
          refine wpAny_take (i := 5) (v := .int .i64 x) rfl (by kernel_rfl) (by kernel_rfl) (by kernel_rfl) (fun _ _ _ h => h) (Or.inl ⟨by rfl, fun w9 => by (go_simp; try with_reducible rfl)⟩) ?_
          change wpAny _ _ _ _ _ _ (Act.put _ (some 41) _) _; dsimp only [Act.put]; simp only [List.setIfInBounds_toArray, List.set_cons_succ, List.set_cons_zero]
          refine wpAny_take (i := 6) (v := .agg #[.int .i64 x, .int .i64 x]) rfl (by kernel_rfl) (by kernel_rfl) (by kernel_rfl) (fun _ _ _ h => h) (Or.inl ⟨by rfl, fun w9 => by (go_simp; try with_reducible rfl)⟩) ?_
          change wpAny _ _ _ _ _ _ (Act.put _ (some 42) _) _; dsimp only [Act.put]; simp only [List.setIfInBounds_toArray, List.set_cons_succ, List.set_cons_zero]
          refine wpAny_take (i := 9) (v := .slice (some ⟨g, 0, none⟩) cO cO) rfl (by kernel_rfl) (by kernel_rfl) (by kernel_rfl) (fun _ _ _ h => h) (Or.inl ⟨by rfl, fun w9 => by (go_simp; try with_reducible rfl)⟩) ?_
          change wpAny _ _ _ _ _ _ (Act.put _ (some 45) _) _; dsimp only [Act.put]; simp only [List.setIfInBounds_toArray, List.set_cons_succ, List.set_cons_zero]
          refine wpAny_take (i := 10) (v := .int .i64 (cO : Int)) rfl (by kernel_rfl) (by kernel_rfl) (by kernel_rfl) (fun _ _ _ h => h) (Or.inl ⟨by rfl, fun w9 => by (go_simp; try with_reducible rfl)⟩) ?_
          change wpAny _ _ _ _ _ _ (Act.put _ (some 46) _) _; dsimp only [Act.put]; simp only [List.setIfInBounds_toArray, List.set_cons_succ, List.set_cons_zero]
          refine wpAny_take (i := 11) (v := .slice (some ⟨g, 0, none⟩) (0) (0)) rfl (by kernel_rfl) (by kernel_rfl) (by kernel_rfl) (fun _ _ _ h => h) (Or.inl ⟨by rfl, fun w9 => by (go_simp; try with_reducible rfl)⟩) ?_
          change wpAny _ _ _ _ _ _ (Act.put _ (some 47) _) _; dsimp only [Act.put]; simp only [List.setIfInBounds_toArray, List.set_cons_succ, List.set_cons_zero]
          refine wpAny_ready (rs := [3, 7]) (by kernel_rfl) (by simp) ?_
          refine AllReady.cons rfl (fun K hK => ?_) (AllReady.cons rfl (fun K hK => ?_) AllReady.nil)
          · refine step_append_ownA rfl (.const (.slice none 0 0)) (.tmp 38) 36 rfl wc.heap.size 70 iR (.agg #[.int .i64 0, .int .i64 0]) 2 16 Try.underlying36 hiR hzR hsR hbR rfl (by decide) (.slice none 0 0) (0) ([]) (by first | rfl | simp [Act.eval, Act.put]) (World.ownsRow_nil _ _ _ _) (some ⟨g, 0, none⟩) (cO) (cO) ((l.take cO).flatMap rgL) (by first | rfl | simp [Act.eval, Act.put]) (fun h => by cases h) HT.out (hnT _ hbd) (by first | exact rg_ones _ | exact two_one _ _ | exact (fun u hu => (by cases hu))) (by unfold maxLen; omega) (by omega) hbd.size ?_; intro v1 w1 hown1 hgr1; simp only [Nat.zero_add, List.nil_append] at hown1; have hb1 := hbd.trans (grown_lowM hgr1 (fun k h => by cases h) hbd.size)
            refine hK _ _ ?_
            clear hK K
            change wpAny _ _ _ _ _ _ (Act.put _ (some 39) _) _; dsimp only [Act.put]; simp only [List.setIfInBounds_toArray, List.set_cons_succ, List.set_cons_zero]
            refine wpAny_ready (rs := [7]) (by kernel_rfl) (by simp) ?_
            refine AllReady.cons rfl (fun K hK => ?_) AllReady.nil
            go_simp
            refine hK _ _ ?_
            clear hK K
            refine wpAny_ready (rs := [8]) (by kernel_rfl) (by simp) ?_
            refine AllReady.cons rfl (fun K hK => ?_) AllReady.nil
            refine step_append_ownA rfl (.tmp 39) (.tmp 43) 36 rfl wc.heap.size 70 iR (.agg #[.int .i64 0, .int .i64 0]) 2 16 Try.underlying36 hiR hzR hsR hbR rfl (by decide) (v1) (cO) ((l.take cO).flatMap rgL) (by first | rfl | simp [Act.eval, Act.put]) (hown1.alloc _) (some ⟨w1.heap.size, 0, none⟩) (1) (1) ([Value.int .i64 x, Value.int .i64 x]) (by first | rfl | simp [Act.eval, Act.put]) (fun h => by cases h) rfl (some_fun (cell_two_new _ _ _ _)) (by first | exact rg_ones _ | exact two_one _ _ | exact (fun u hu => (by cases hu))) (by unfold maxLen; omega) (by omega) (hb1.alloc hb1.size _).size ?_; intro v2 w2 hown2 hgr2; have hb2 := (hb1.alloc hb1.size _).trans (below_grown (hown1.alloc _) hgr2 (hb1.alloc hb1.size _).size)
            refine hK _ _ ?_
            clear hK K
            change wpAny _ _ _ _ _ _ (Act.put _ (some 44) _) _; dsimp only [Act.put]; simp only [List.setIfInBounds_toArray, List.set_cons_succ, List.set_cons_zero]
            refine wpAny_ready (rs := [12]) (by kernel_rfl) (by simp) ?_
            refine AllReady.cons rfl (fun K hK => ?_) AllReady.nil
            refine step_append_ownA rfl (.tmp 44) (.tmp 47) 36 rfl wc.heap.size 70 iR (.agg #[.int .i64 0, .int .i64 0]) 2 16 Try.underlying36 hiR hzR hsR hbR rfl (by decide) (v2) (cO + 1) ((l.take cO).flatMap rgL ++ [Value.int .i64 x, Value.int .i64 x]) (by first | rfl | simp [Act.eval, Act.put]) hown2 (some ⟨g, 0, none⟩) (0) (0) ([]) (by first | rfl | simp [Act.eval, Act.put]) (fun h => by cases h) rfl (fun ad e j u hu => (by  cases hu)) (by first | exact rg_ones _ | exact two_one _ _ | exact (fun u hu => (by cases hu))) (by unfold maxLen; omega) (by omega) hb2.size ?_; intro v3 w3 hown3 hgr3; have hb3 := hb2.trans (below_grown hown2 hgr3 hb2.size)
            refine hK _ _ ?_
            clear hK K
            change wpAny _ _ _ _ _ _ (Act.put _ (some 48) _) _; dsimp only [Act.put]; simp only [List.setIfInBounds_toArray, List.set_cons_succ, List.set_cons_zero]
            refine wpAny_take (i := 13) (v := v3) rfl (by kernel_rfl) (by kernel_rfl) (by kernel_rfl) (fun _ _ _ h => h) (Or.inl ⟨by rfl, fun w9 => by (go_simp; try with_reducible rfl)⟩) ?_
            change wpAny _ _ _ _ _ _ (Act.put _ (some 5) _) _; dsimp only [Act.put]; simp only [List.setIfInBounds_toArray, List.set_cons_succ, List.set_cons_zero]
            refine wpAny_done (by kernel_rfl) ?_ _
            go_wp2
            go_meet
            case rel =>
              rw [HD0.out, ← rg_mid_eq, List.flatMap_nil]
              exact ⟨own_lowerM hown3 hbel.size, hbel.trans (hb3.mono hbel.size)⟩
          · go_simp
            refine hK _ _ ?_
            clear hK K
            have hbd2 : Below wc.heap.size wc (wc.alloc (.cells #[.int .i64 x, .int .i64 x] 70)).drew := (Below.alloc (Below.refl _ _) (Nat.le_refl _) _).drew
            refine wpAny_ready (rs := [3]) (by kernel_rfl) (by simp) ?_
            refine AllReady.cons rfl (fun K hK => ?_) AllReady.nil
            refine step_append_ownA rfl (.const (.slice none 0 0)) (.tmp 38) 36 rfl wc.heap.size 70 iR (.agg #[.int .i64 0, .int .i64 0]) 2 16 Try.underlying36 hiR hzR hsR hbR rfl (by decide) (.slice none 0 0) (0) ([]) (by first | rfl | simp [Act.eval, Act.put]) (World.ownsRow_nil _ _ _ _) (some ⟨g, 0, none⟩) (cO) (cO) ((l.take cO).flatMap rgL) (by first | rfl | simp [Act.eval, Act.put]) (fun h => by cases h) HT.out (hnT _ hbd2) (by first | exact rg_ones _ | exact two_one _ _ | exact (fun u hu => (by cases hu))) (by unfold maxLen; omega) (by omega) hbd2.size ?_; intro v1 w1 hown1 hgr1; have hN1 := two_kept (w := wc) (x := .int .i64 x) (y := .int .i64 x) (t := 70) ⟨hgr1.os, hgr1.tape, hgr1.output, hgr1.size, hgr1.block⟩; simp only [Nat.zero_add, List.nil_append] at hown1; have hb1 := hbd2.trans (grown_lowM hgr1 (fun k h => by cases h) hbd2.size)
            refine hK _ _ ?_
            clear hK K
            change wpAny _ _ _ _ _ _ (Act.put _ (some 39) _) _; dsimp only [Act.put]; simp only [List.setIfInBounds_toArray, List.set_cons_succ, List.set_cons_zero]
            refine wpAny_ready (rs := [8]) (by kernel_rfl) (by simp) ?_
            refine AllReady.cons rfl (fun K hK => ?_) AllReady.nil
            refine step_append_ownA rfl (.tmp 39) (.tmp 43) 36 rfl wc.heap.size 70 iR (.agg #[.int .i64 0, .int .i64 0]) 2 16 Try.underlying36 hiR hzR hsR hbR rfl (by decide) (v1) (cO) ((l.take cO).flatMap rgL) (by first | rfl | simp [Act.eval, Act.put]) hown1 (some ⟨wc.heap.size, 0, none⟩) (1) (1) ([Value.int .i64 x, Value.int .i64 x]) (by first | rfl | simp [Act.eval, Act.put]) (fun h => by cases h) rfl (some_fun hN1) (by first | exact rg_ones _ | exact two_one _ _ | exact (fun u hu => (by cases hu))) (by unfold maxLen; omega) (by omega) hb1.size ?_; intro v2 w2 hown2 hgr2; have hb2 := hb1.trans (below_grown hown1 hgr2 hb1.size)
            refine hK _ _ ?_
            clear hK K
            change wpAny _ _ _ _ _ _ (Act.put _ (some 44) _) _; dsimp only [Act.put]; simp only [List.setIfInBounds_toArray, List.set_cons_succ, List.set_cons_zero]
            refine wpAny_ready (rs := [12]) (by kernel_rfl) (by simp) ?_
            refine AllReady.cons rfl (fun K hK => ?_) AllReady.nil
            refine step_append_ownA rfl (.tmp 44) (.tmp 47) 36 rfl wc.heap.size 70 iR (.agg #[.int .i64 0, .int .i64 0]) 2 16 Try.underlying36 hiR hzR hsR hbR rfl (by decide) (v2) (cO + 1) ((l.take cO).flatMap rgL ++ [Value.int .i64 x, Value.int .i64 x]) (by first | rfl | simp [Act.eval, Act.put]) hown2 (some ⟨g, 0, none⟩) (0) (0) ([]) (by first | rfl | simp [Act.eval, Act.put]) (fun h => by cases h) rfl (fun ad e j u hu => (by  cases hu)) (by first | exact rg_ones _ | exact two_one _ _ | exact (fun u hu => (by cases hu))) (by unfold maxLen; omega) (by omega) hb2.size ?_; intro v3 w3 hown3 hgr3; have hb3 := hb2.trans (below_grown hown2 hgr3 hb2.size)
            refine hK _ _ ?_
            clear hK K
            change wpAny _ _ _ _ _ _ (Act.put _ (some 48) _) _; dsimp only [Act.put]; simp only [List.setIfInBounds_toArray, List.set_cons_succ, List.set_cons_zero]
            refine wpAny_take (i := 13) (v := v3) rfl (by kernel_rfl) (by kernel_rfl) (by kernel_rfl) (fun _ _ _ h => h) (Or.inl ⟨by rfl, fun w9 => by (go_simp; try with_reducible rfl)⟩) ?_
            change wpAny _ _ _ _ _ _ (Act.put _ (some 5) _) _; dsimp only [Act.put]; simp only [List.setIfInBounds_toArray, List.set_cons_succ, List.set_cons_zero]
            refine wpAny_done (by kernel_rfl) ?_ _
            go_wp2
            go_meet
            case rel =>
              rw [HD0.out, ← rg_mid_eq, List.flatMap_nil]
              exact ⟨own_lowerM hown3 hbel.size, hbel.trans (hb3.mono hbel.size)⟩
        · have hnD := fun W (hb : Below wc.heap.size wc W) => rg_drop_at (hrO6.below hb) (k := k) (by rw [HN.out]; exact hk)
          have hbd := (Below.refl wc.heap.size wc).drew
          refine wp_region_any (by kernel_rfl) ?_
          change wpAny _ _ _ _ _ _ _ (World.drew _)
          refine wpAny_take (i := 0) (v := .slice (some ⟨g, 0, none⟩) n cO) rfl (by kernel_rfl) (by kernel_rfl) (by kernel_rfl) (fun _ _ _ h => h) (Or.inl ⟨by rfl, fun w9 => by (go_simp; try with_reducible rfl)⟩) ?_
          change wpAny _ _ _ _ _ _ (Act.put _ (some 36) _) _; dsimp only [Act.put]; simp only [List.setIfInBounds_toArray, List.set_cons_succ, List.set_cons_zero]
          refine wpAny_take (i := 1) (v := .int .i64 (k : Int)) rfl (by kernel_rfl) (by kernel_rfl) (by kernel_rfl) (fun _ _ _ h => h) (Or.inl ⟨by rfl, fun w9 => by (go_simp; try with_reducible rfl)⟩) ?_
          change wpAny _ _ _ _ _ _ (Act.put _ (some 37) _) _; dsimp only [Act.put]; simp only [List.setIfInBounds_toArray, List.set_cons_succ, List.set_cons_zero]
          refine wpAny_take (i := 2) (v := .slice (some ⟨g, 0, none⟩) (k) (cO)) rfl (by kernel_rfl) (by kernel_rfl) (by kernel_rfl) (fun _ _ _ h => h) (Or.inl ⟨by rfl, fun w9 => by (go_simp; try with_reducible rfl)⟩) ?_
          change wpAny _ _ _ _ _ _ (Act.put _ (some 38) _) _; dsimp only [Act.put]; simp only [List.setIfInBounds_toArray, List.set_cons_succ, List.set_cons_zero]
          refine wpAny_take (i := 4) (v := .int .i64 x) rfl (by kernel_rfl) (by kernel_rfl) (by kernel_rfl) (fun _ _ _ h => h) (Or.inl ⟨by rfl, fun w9 => by (go_simp; try with_reducible rfl)⟩) ?_
          change wpAny _ _ _ _ _ _ (Act.put _ (some 40) _) _; dsimp only [Act.put]; simp only [List.setIfInBounds_toArray, List.set_cons_succ, List.set_cons_zero]
          refine wpAny_take (i := 5) (v := .int .i64 x) rfl (by kernel_rfl) (by kernel_rfl) (by kernel_rfl) (fun _ _ _ h => h) (Or.inl ⟨by rfl, fun w9 => by (go_simp; try with_reducible rfl)⟩) ?_
          change wpAny _ _ _ _ _ _ (Act.put _ (some 41) _) _; dsimp only [Act.put]; simp only [List.setIfInBounds_toArray, List.set_cons_succ, List.set_cons_zero]
          refine wpAny_take (i := 6) (v := .agg #[.int .i64 x, .int .i64 x]) rfl (by kernel_rfl) (by kernel_rfl) (by kernel_rfl) (fun _ _ _ h => h) (Or.inl ⟨by rfl, fun w9 => by (go_simp; try with_reducible rfl)⟩) ?_
          change wpAny _ _ _ _ _ _ (Act.put _ (some 42) _) _; dsimp only [Act.put]; simp only [List.setIfInBounds_toArray, List.set_cons_succ, List.set_cons_zero]
          refine wpAny_take (i := 9) (v := .slice (some ⟨g, 0, none⟩) n cO) rfl (by kernel_rfl) (by kernel_rfl) (by kernel_rfl) (fun _ _ _ h => h) (Or.inl ⟨by rfl, fun w9 => by (go_simp; try with_reducible rfl)⟩) ?_
          change wpAny _ _ _ _ _ _ (Act.put _ (some 45) _) _; dsimp only [Act.put]; simp only [List.setIfInBounds_toArray, List.set_cons_succ, List.set_cons_zero]
          refine wpAny_take (i := 10) (v := .int .i64 (k : Int)) rfl (by kernel_rfl) (by kernel_rfl) (by kernel_rfl) (fun _ _ _ h => h) (Or.inl ⟨by rfl, fun w9 => by (go_simp; try with_reducible rfl)⟩) ?_
          change wpAny _ _ _ _ _ _ (Act.put _ (some 46) _) _; dsimp only [Act.put]; simp only [List.setIfInBounds_toArray, List.set_cons_succ, List.set_cons_zero]
          refine wpAny_take (i := 11) (v := .slice (some ⟨g, k * 2, none⟩) (n - k) (cO - k)) rfl (by kernel_rfl) (by kernel_rfl) (by kernel_rfl) (fun _ _ _ h => h) (Or.inl ⟨by rfl, fun w9 => by (go_simp; try with_reducible rfl)⟩) ?_
          change wpAny _ _ _ _ _ _ (Act.put _ (some 47) _) _; dsimp only [Act.put]; simp only [List.setIfInBounds_toArray, List.set_cons_succ, List.set_cons_zero]
          refine wpAny_ready (rs := [3, 7]) (by kernel_rfl) (by simp) ?_
          refine AllReady.cons rfl (fun K hK => ?_) (AllReady.cons rfl (fun K hK => ?_) AllReady.nil)
          · refine step_append_ownA rfl (.const (.slice none 0 0)) (.tmp 38) 36 rfl wc.heap.size 70 iR (.agg #[.int .i64 0, .int .i64 0]) 2 16 Try.underlying36 hiR hzR hsR hbR rfl (by decide) (.slice none 0 0) (0) ([]) (by first | rfl | simp [Act.eval, Act.put]) (World.ownsRow_nil _ _ _ _) (some ⟨g, 0, none⟩) (k) (cO) ((l.take k).flatMap rgL) (by first | rfl | simp [Act.eval, Act.put]) (fun h => by cases h) HT.out (hnT _ hbd) (by first | exact rg_ones _ | exact two_one _ _ | exact (fun u hu => (by cases hu))) (by unfold maxLen; omega) (by omega) hbd.size ?_; intro v1 w1 hown1 hgr1; simp only [Nat.zero_add, List.nil_append] at hown1; have hb1 := hbd.trans (grown_lowM hgr1 (fun k h => by cases h) hbd.size)
            refine hK _ _ ?_
            clear hK K
            change wpAny _ _ _ _ _ _ (Act.put _ (some 39) _) _; dsimp only [Act.put]; simp only [List.setIfInBounds_toArray, List.set_cons_succ, List.set_cons_zero]
            refine wpAny_ready (rs := [7]) (by kernel_rfl) (by simp) ?_
            refine AllReady.cons rfl (fun K hK => ?_) AllReady.nil
            go_simp
            refine hK _ _ ?_
            clear hK K
            refine wpAny_ready (rs := [8]) (by kernel_rfl) (by simp) ?_
            refine AllReady.cons rfl (fun K hK => ?_) AllReady.nil
            refine step_append_ownA rfl (.tmp 39) (.tmp 43) 36 rfl wc.heap.size 70 iR (.agg #[.int .i64 0, .int .i64 0]) 2 16 Try.underlying36 hiR hzR hsR hbR rfl (by decide) (v1) (k) ((l.take k).flatMap rgL) (by first | rfl | simp [Act.eval, Act.put]) (hown1.alloc _) (some ⟨w1.heap.size, 0, none⟩) (1) (1) ([Value.int .i64 x, Value.int .i64 x]) (by first | rfl | simp [Act.eval, Act.put]) (fun h => by cases h) rfl (some_fun (cell_two_new _ _ _ _)) (by first | exact rg_ones _ | exact two_one _ _ | exact (fun u hu => (by cases hu))) (by unfold maxLen; omega) (by omega) (hb1.alloc hb1.size _).size ?_; intro v2 w2 hown2 hgr2; have hb2 := (hb1.alloc hb1.size _).trans (below_grown (hown1.alloc _) hgr2 (hb1.alloc hb1.size _).size)
            refine hK _ _ ?_
            clear hK K
            change wpAny _ _ _ _ _ _ (Act.put _ (some 44) _) _; dsimp only [Act.put]; simp only [List.setIfInBounds_toArray, List.set_cons_succ, List.set_cons_zero]
            refine wpAny_ready (rs := [12]) (by kernel_rfl) (by simp) ?_
            refine AllReady.cons rfl (fun K hK => ?_) AllReady.nil
            refine step_append_ownA rfl (.tmp 44) (.tmp 47) 36 rfl wc.heap.size 70 iR (.agg #[.int .i64 0, .int .i64 0]) 2 16 Try.underlying36 hiR hzR hsR hbR rfl (by decide) (v2) (k + 1) ((l.take k).flatMap rgL ++ [Value.int .i64 x, Value.int .i64 x]) (by first | rfl | simp [Act.eval, Act.put]) hown2 (some ⟨g, k * 2, none⟩) (n - k) (cO - k) ((l.drop k).flatMap rgL) (by first | rfl | simp [Act.eval, Act.put]) (fun h => by cases h) HD.out (hnD _ hb2) (by first | exact rg_ones _ | exact two_one _ _ | exact (fun u hu => (by cases hu))) (by unfold maxLen; omega) (by omega) hb2.size ?_; intro v3 w3 hown3 hgr3; have hb3 := hb2.trans (below_grown hown2 hgr3 hb2.size)
            refine hK _ _ ?_
            clear hK K
            change wpAny _ _ _ _ _ _ (Act.put _ (some 48) _) _; dsimp only [Act.put]; simp only [List.setIfInBounds_toArray, List.set_cons_succ, List.set_cons_zero]
            refine wpAny_take (i := 13) (v := v3) rfl (by kernel_rfl) (by kernel_rfl) (by kernel_rfl) (fun _ _ _ h => h) (Or.inl ⟨by rfl, fun w9 => by (go_simp; try with_reducible rfl)⟩) ?_
            change wpAny _ _ _ _ _ _ (Act.put _ (some 5) _) _; dsimp only [Act.put]; simp only [List.setIfInBounds_toArray, List.set_cons_succ, List.set_cons_zero]
            refine wpAny_done (by kernel_rfl) ?_ _
            go_wp2
            go_meet
            case rel =>
              rw [rg_mid_eq, show k + 1 + (n - k) = n + 1 by omega] at hown3
              exact ⟨own_lowerM hown3 hbel.size, hbel.trans (hb3.mono hbel.size)⟩
          · go_simp
            refine hK _ _ ?_
            clear hK K
            have hbd2 : Below wc.heap.size wc (wc.alloc (.cells #[.int .i64 x, .int .i64 x] 70)).drew := (Below.alloc (Below.refl _ _) (Nat.le_refl _) _).drew
            refine wpAny_ready (rs := [3]) (by kernel_rfl) (by simp) ?_
            refine AllReady.cons rfl (fun K hK => ?_) AllReady.nil
            refine step_append_ownA rfl (.const (.slice none 0 0)) (.tmp 38) 36 rfl wc.heap.size 70 iR (.agg #[.int .i64 0, .int .i64 0]) 2 16 Try.underlying36 hiR hzR hsR hbR rfl (by decide) (.slice none 0 0) (0) ([]) (by first | rfl | simp [Act.eval, Act.put]) (World.ownsRow_nil _ _ _ _) (some ⟨g, 0, none⟩) (k) (cO) ((l.take k).flatMap rgL) (by first | rfl | simp [Act.eval, Act.put]) (fun h => by cases h) HT.out (hnT _ hbd2) (by first | exact rg_ones _ | exact two_one _ _ | exact (fun u hu => (by cases hu))) (by unfold maxLen; omega) (by omega) hbd2.size ?_; intro v1 w1 hown1 hgr1; have hN1 := two_kept (w := wc) (x := .int .i64 x) (y := .int .i64 x) (t := 70) ⟨hgr1.os, hgr1.tape, hgr1.output, hgr1.size, hgr1.block⟩; simp only [Nat.zero_add, List.nil_append] at hown1; have hb1 := hbd2.trans (grown_lowM hgr1 (fun k h => by cases h) hbd2.size)
            refine hK _ _ ?_
            clear hK K
            change wpAny _ _ _ _ _ _ (Act.put _ (some 39) _) _; dsimp only [Act.put]; simp only [List.setIfInBounds_toArray, List.set_cons_succ, List.set_cons_zero]
            refine wpAny_ready (rs := [8]) (by kernel_rfl) (by simp) ?_
            refine AllReady.cons rfl (fun K hK => ?_) AllReady.nil
            refine step_append_ownA rfl (.tmp 39) (.tmp 43) 36 rfl wc.heap.size 70 iR (.agg #[.int .i64 0, .int .i64 0]) 2 16 Try.underlying36 hiR hzR hsR hbR rfl (by decide) (v1) (k) ((l.take k).flatMap rgL) (by first | rfl | simp [Act.eval, Act.put]) hown1 (some ⟨wc.heap.size, 0, none⟩) (1) (1) ([Value.int .i64 x, Value.int .i64 x]) (by first | rfl | simp [Act.eval, Act.put]) (fun h => by cases h) rfl (some_fun hN1) (by first | exact rg_ones _ | exact two_one _ _ | exact (fun u hu => (by cases hu))) (by unfold maxLen; omega) (by omega) hb1.size ?_; intro v2 w2 hown2 hgr2; have hb2 := hb1.trans (below_grown hown1 hgr2 hb1.size)
            refine hK _ _ ?_
            clear hK K
            change wpAny _ _ _ _ _ _ (Act.put _ (some 44) _) _; dsimp only [Act.put]; simp only [List.setIfInBounds_toArray, List.set_cons_succ, List.set_cons_zero]
            refine wpAny_ready (rs := [12]) (by kernel_rfl) (by simp) ?_
            refine AllReady.cons rfl (fun K hK => ?_) AllReady.nil
            refine step_append_ownA rfl (.tmp 44) (.tmp 47) 36 rfl wc.heap.size 70 iR (.agg #[.int .i64 0, .int .i64 0]) 2 16 Try.underlying36 hiR hzR hsR hbR rfl (by decide) (v2) (k + 1) ((l.take k).flatMap rgL ++ [Value.int .i64 x, Value.int .i64 x]) (by first | rfl | simp [Act.eval, Act.put]) hown2 (some ⟨g, k * 2, none⟩) (n - k) (cO - k) ((l.drop k).flatMap rgL) (by first | rfl | simp [Act.eval, Act.put]) (fun h => by cases h) HD.out (hnD _ hb2) (by first | exact rg_ones _ | exact two_one _ _ | exact (fun u hu => (by cases hu))) (by unfold maxLen; omega) (by omega) hb2.size ?_; intro v3 w3 hown3 hgr3; have hb3 := hb2.trans (below_grown hown2 hgr3 hb2.size)
            refine hK _ _ ?_
            clear hK K
            change wpAny _ _ _ _ _ _ (Act.put _ (some 48) _) _; dsimp only [Act.put]; simp only [List.setIfInBounds_toArray, List.set_cons_succ, List.set_cons_zero]
            refine wpAny_take (i := 13) (v := v3) rfl (by kernel_rfl) (by kernel_rfl) (by kernel_rfl) (fun _ _ _ h => h) (Or.inl ⟨by rfl, fun w9 => by (go_simp; try with_reducible rfl)⟩) ?_
            change wpAny _ _ _ _ _ _ (Act.put _ (some 5) _) _; dsimp only [Act.put]; simp only [List.setIfInBounds_toArray, List.set_cons_succ, List.set_cons_zero]
            refine wpAny_done (by kernel_rfl) ?_ _
            go_wp2
            go_meet
            case rel =>
              rw [rg_mid_eq, show k + 1 + (n - k) = n + 1 by omega] at hown3
              exact ⟨own_lowerM hown3 hbel.size, hbel.trans (hb3.mono hbel.size)⟩
    case rest =>
      clear hown6 hrO6 hbel
      obtain ⟨hown, hbel⟩ := hcut
      obtain ⟨g, cC, hv5⟩ := own_formS hown (by omega)
      subst hv5
      obtain ⟨_, hNc, hcm⟩ : ∃ z : Nat, n + 1 ≤ cC ∧ cC ≤ maxLen := by
        obtain ⟨a9, c9, e9, _, h1, h2, _⟩ := own_sliceN hown
        simp only [Value.slice.injEq] at e9
        obtain ⟨_, _, rfl⟩ := e9
        exact ⟨0, h1, h2⟩
      unfold maxLen at hcm
      have hAl : (l.take k).length = k := by rw [List.length_take, Nat.min_eq_left (by rw [HN.out]; exact hk)]
      have hCl : (l.drop k).length = n - k := by rw [List.length_drop, HN.out]
      have hall := List.take_append_drop k l
      obtain ⟨A, hA⟩ : ∃ A, l.take k = A := ⟨_, rfl⟩
      obtain ⟨C, hC⟩ : ∃ C, l.drop k = C := ⟨_, rfl⟩
      rw [hA] at HA hown hAl hall
      rw [hC] at HC hown hCl hall
      have e9 : addS l (x, x) = addS (A ++ C) (x, x) := by rw [hall]
      have HF := Lib.hid ((HI.out.trans e9).trans (addS_mid (p := -2) (by rw [hall]; exact HGD.out) HA.out HC.out))
      clear e9
      have hgl := HGD.out
      rw [← hall] at hgl
      clear HT HD HI HGD HL hall hA hC n1 n3
      obtain ⟨N, hN⟩ : ∃ N, n + 1 = N := ⟨_, rfl⟩
      obtain ⟨q, hq⟩ : ∃ q, k + 1 = q := ⟨_, rfl⟩
      obtain ⟨t, ht⟩ : ∃ t, k + 2 = t := ⟨_, rfl⟩
      rw [hN] at hown hNc
      have hadd : (k : Int) + 1 = (q : Int) := by omega
      have hadd2 : (k : Int) + 2 = (t : Int) := by omega
      have q0 : (0 : Int) ≤ (q : Int) := by omega
      have q2 : ((q : Nat) : Int).toNat = q := by omega
      have t0 : (0 : Int) ≤ (t : Int) := by omega
      have t2 : ((t : Nat) : Int).toNat = t := by omega
      have wq : IntKind.i64.wrap (q : Int) = (q : Int) := by rw [IntKind.wrap_i64]; omega
      have wt : IntKind.i64.wrap (t : Int) = (t : Int) := by rw [IntKind.wrap_i64]; omega
      have q4 : (q : Int) ≤ (cC : Int) := by omega
      have k4 : (k : Int) < (N : Int) := by omega
      simp only [hN]
      iterate 2 go_step
      go_cut [5] from 49 to 83 (fun v wd => ∃ (M : Int × Int) (C2 : List (Int × Int)), Hid (midR C x = (M, C2)) ∧ wd.ownsRow w.heap.size 70 2 v (q + C2.length) ((A ++ M :: C2).flatMap rgL) ∧ Below w.heap.size w wd)
      case first =>
        cases hCe : C with
        | nil =>
          subst hCe
          have hCl0 : n - k = 0 := hCl.symm
          obtain rfl : q = N := by omega
          have d8 : decide ((q : Int) < (q : Int)) = false := decide_eq_false (by omega)
          have d8n : decide (q < q) = false := decide_eq_false (by omega)
          go_wp2
          go_meet
          case rel => exact ⟨(x, x), [], Lib.hid rfl, hown, hbel⟩
        | cons c C' =>
          subst hCe
          obtain ⟨c1, c2⟩ := c
          rw [List.length_cons] at hCl
          have hqN : q < N := by omega
          have htN : t ≤ N := by omega
          have q1 : (q : Int) < (N : Int) := by omega
          have t4 : (t : Int) ≤ (N : Int) := by omega
          have t5 : (t : Int) ≤ (cC : Int) := by omega
          have d8 : decide ((q : Int) < (N : Int)) = true := decide_eq_true (by omega)
          have d8n : decide (q < N) = true := decide_eq_true hqN
          obtain ⟨k0, k1⟩ := rg_cellL (A := A ++ [(x, x)]) (r := (c1, c2)) (C := C') (q := q) (by rw [List.append_assoc]; exact hown) (by rw [List.length_append, hAl]; exact hq)
          simp only [] at k0 k1
          obtain ⟨_, kx⟩ := rg_cellL (A := A) (r := (x, x)) (C := (c1, c2) :: C') hown hAl
          simp only [] at kx
          have kf := hown.frozenAt (k * 2 + 1)
          by_cases h1 : c1 = x + 1
          · have e8 : (c1 == x + 1) = true := by rw [beq_iff_eq]; exact h1
            have e8d : decide (c1 = x + 1) = true := decide_eq_true h1
            have HM := Lib.hid (show midR ((c1, c2) :: C') x = ((x, c2), C') by unfold midR; simp only []; rw [if_pos h1])
            go_upto_region 10 with fail
            refine wp_nameE _ (fun W hW => ?_)
            obtain ⟨hS, hgS⟩ := hown.stored (k * 2 + 1) (.int .i64 c2)
            rw [← hW] at hS hgS
            rw [rg_setL A (x, x) _ c2 hAl] at hS
            have hbW := hbel.trans (below_grown hown hgS hbel.size)
            obtain ⟨L, hL⟩ : ∃ L, A ++ (x, c2) :: (c1, c2) :: C' = L := ⟨_, rfl⟩
            simp only [] at hS
            rw [hL] at hS
            have HLW : L.length = N := by rw [← hL, List.length_append, List.length_cons, List.length_cons]; omega
            have HPW := rg_own_prefix hS HLW (p := q) (by omega)
            have HTW := rg_own_row hS
            have HLT := Lib.hid (show L.take q = A ++ [(x, c2)] by rw [← hL, show A ++ (x, c2) :: (c1, c2) :: C' = (A ++ [(x, c2)]) ++ (c1, c2) :: C' by rw [List.append_assoc]; rfl, List.take_left' (by rw [List.length_append, hAl]; exact hq)])
            have HLD := Lib.hid (show L.drop t = C' by rw [← hL, show A ++ (x, c2) :: (c1, c2) :: C' = (A ++ [(x, c2), (c1, c2)]) ++ C' by rw [List.append_assoc]; rfl, List.drop_left' (by rw [List.length_append, hAl]; exact ht)])
            clear hW hgS hS hL k0 k1 kx kf e8 e8d h1 HF hown hbel hgl
            by_cases hct : cC = t
            · have hNt : t = N := by omega
              have hct2 : t = cC := hct.symm
              have HDZ : L.drop t = [] := List.drop_of_length_le (by omega)
              clear hct
              subst hNt hct2
              refine wp_region_any (by kernel_rfl) ?_
              change wpAny _ _ _ _ _ _ _ (World.drew _)
              refine wpAny_take (i := 0) (v := .slice (some ⟨g, 0, none⟩) t t) rfl (by kernel_rfl) (by kernel_rfl) (by kernel_rfl) (fun _ _ _ h => h) (Or.inl ⟨by rfl, fun w9 => by (go_simp; try with_reducible rfl)⟩) ?_
              change wpAny _ _ _ _ _ _ (Act.put _ (some 75) _) _; dsimp only [Act.put]; simp only [List.setIfInBounds_toArray, List.set_cons_succ, List.set_cons_zero]
              refine wpAny_take (i := 1) (v := .int .i64 (k : Int)) rfl (by kernel_rfl) (by kernel_rfl) (by kernel_rfl) (fun _ _ _ h => h) (Or.inl ⟨by rfl, fun w9 => by (go_simp; try with_reducible rfl)⟩) ?_
              change wpAny _ _ _ _ _ _ (Act.put _ (some 76) _) _; dsimp only [Act.put]; simp only [List.setIfInBounds_toArray, List.set_cons_succ, List.set_cons_zero]
              refine wpAny_take (i := 2) (v := .int .i64 (q : Int)) rfl (by kernel_rfl) (by kernel_rfl) (by kernel_rfl) (fun _ _ _ h => h) (Or.inl ⟨by rfl, fun w9 => by (go_simp; try with_reducible rfl)⟩) ?_
              change wpAny _ _ _ _ _ _ (Act.put _ (some 77) _) _; dsimp only [Act.put]; simp only [List.setIfInBounds_toArray, List.set_cons_succ, List.set_cons_zero]
              refine wpAny_take (i := 3) (v := .slice (some ⟨g, 0, none⟩) q t) rfl (by kernel_rfl) (by kernel_rfl) (by kernel_rfl) (fun _ _ _ h => h) (Or.inl ⟨by rfl, fun w9 => by (go_simp; try with_reducible rfl)⟩) ?_
              change wpAny _ _ _ _ _ _ (Act.put _ (some 78) _) _; dsimp only [Act.put]; simp only [List.setIfInBounds_toArray, List.set_cons_succ, List.set_cons_zero]
              refine wpAny_take (i := 4) (v := .slice (some ⟨g, 0, none⟩) t t) rfl (by kernel_rfl) (by kernel_rfl) (by kernel_rfl) (fun _ _ _ h => h) (Or.inl ⟨by rfl, fun w9 => by (go_simp; try with_reducible rfl)⟩) ?_
              change wpAny _ _ _ _ _ _ (Act.put _ (some 79) _) _; dsimp only [Act.put]; simp only [List.setIfInBounds_toArray, List.set_cons_succ, List.set_cons_zero]
              refine wpAny_take (i := 5) (v := .int .i64 (k : Int)) rfl (by kernel_rfl) (by kernel_rfl) (by kernel_rfl) (fun _ _ _ h => h) (Or.inl ⟨by rfl, fun w9 => by (go_simp; try with_reducible rfl)⟩) ?_
              change wpAny _ _ _ _ _ _ (Act.put _ (some 80) _) _; dsimp only [Act.put]; simp only [List.setIfInBounds_toArray, List.set_cons_succ, List.set_cons_zero]
              refine wpAny_take (i := 6) (v := .int .i64 (t : Int)) rfl (by kernel_rfl) (by kernel_rfl) (by kernel_rfl) (fun _ _ _ h => h) (Or.inl ⟨by rfl, fun w9 => by (go_simp; try with_reducible rfl)⟩) ?_
              change wpAny _ _ _ _ _ _ (Act.put _ (some 81) _) _; dsimp only [Act.put]; simp only [List.setIfInBounds_toArray, List.set_cons_succ, List.set_cons_zero]
              refine wpAny_take (i := 7) (v := .slice (some ⟨g, 0, none⟩) (0) (0)) rfl (by kernel_rfl) (by kernel_rfl) (by kernel_rfl) (fun _ _ _ h => h) (Or.inl ⟨by rfl, fun w9 => by (go_simp; try with_reducible rfl)⟩) ?_
              change wpAny _ _ _ _ _ _ (Act.put _ (some 82) _) _; dsimp only [Act.put]; simp only [List.setIfInBounds_toArray, List.set_cons_succ, List.set_cons_zero]
              refine wpAny_ready (rs := [8]) (by kernel_rfl) (by simp) ?_
              refine AllReady.cons rfl (fun K hK => ?_) AllReady.nil
              refine step_append_ownA rfl (.tmp 78) (.tmp 82) 36 rfl w.heap.size 70 iR (.agg #[.int .i64 0, .int .i64 0]) 2 16 Try.underlying36 hiR hzR hsR hbR rfl (by decide) (.slice (some ⟨g, 0, none⟩) q t) (q) ((L.take q).flatMap rgL) (by first | rfl | simp [Act.eval, Act.put]) (World.ownsRow.drew HPW) (some ⟨g, 0, none⟩) (0) (0) ([]) (by first | rfl | simp [Act.eval, Act.put]) (fun h => by cases h) rfl (fun ad e j u hu => (by cases hu)) (by first | exact rg_ones _ | exact two_one _ _ | exact (fun u hu => (by cases hu))) (by unfold maxLen; omega) (by omega) hbW.size ?_
              intro v3 w3 hown3 hgr3
              have hb3 := hbW.trans ((below_grown HPW ⟨hgr3.os, hgr3.tape, hgr3.output, hgr3.size, hgr3.block⟩ hbW.size).mono (Nat.le_refl _))
              refine hK _ _ ?_
              clear hK K
              change wpAny _ _ _ _ _ _ (Act.put _ (some 83) _) _; dsimp only [Act.put]; simp only [List.setIfInBounds_toArray, List.set_cons_succ, List.set_cons_zero]
              refine wpAny_take (i := 9) (v := v3) rfl (by kernel_rfl) (by kernel_rfl) (by kernel_rfl) (fun _ _ _ h => h) (Or.inl ⟨by rfl, fun w9 => by (go_simp; try with_reducible rfl)⟩) ?_
              change wpAny _ _ _ _ _ _ (Act.put _ (some 5) _) _; dsimp only [Act.put]; simp only [List.setIfInBounds_toArray, List.set_cons_succ, List.set_cons_zero]
              refine wpAny_done (by kernel_rfl) ?_ _
              have hown3 : w3.ownsRow w.heap.size 70 2 v3 (q + (L.drop t).length) ((L.take q).flatMap rgL ++ (L.drop t).flatMap rgL) := by rw [HDZ]; exact hown3
              rw [← List.flatMap_append, HLT.out, HLD.out, List.append_assoc] at hown3
              go_wp2
              go_meet
              case rel => exact ⟨(x, c2), C', HM, hown3, hb3⟩
            · have hnD := rg_drop_at HTW (k := t) (by omega)
              refine wp_region_any (by kernel_rfl) ?_
              change wpAny _ _ _ _ _ _ _ (World.drew _)
              refine wpAny_take (i := 0) (v := .slice (some ⟨g, 0, none⟩) N cC) rfl (by kernel_rfl) (by kernel_rfl) (by kernel_rfl) (fun _ _ _ h => h) (Or.inl ⟨by rfl, fun w9 => by (go_simp; try with_reducible rfl)⟩) ?_
              change wpAny _ _ _ _ _ _ (Act.put _ (some 75) _) _; dsimp only [Act.put]; simp only [List.setIfInBounds_toArray, List.set_cons_succ, List.set_cons_zero]
              refine wpAny_take (i := 1) (v := .int .i64 (k : Int)) rfl (by kernel_rfl) (by kernel_rfl) (by kernel_rfl) (fun _ _ _ h => h) (Or.inl ⟨by rfl, fun w9 => by (go_simp; try with_reducible rfl)⟩) ?_
              change wpAny _ _ _ _ _ _ (Act.put _ (some 76) _) _; dsimp only [Act.put]; simp only [List.setIfInBounds_toArray, List.set_cons_succ, List.set_cons_zero]
              refine wpAny_take (i := 2) (v := .int .i64 (q : Int)) rfl (by kernel_rfl) (by kernel_rfl) (by kernel_rfl) (fun _ _ _ h => h) (Or.inl ⟨by rfl, fun w9 => by (go_simp; try with_reducible rfl)⟩) ?_
              change wpAny _ _ _ _ _ _ (Act.put _ (some 77) _) _; dsimp only [Act.put]; simp only [List.setIfInBounds_toArray, List.set_cons_succ, List.set_cons_zero]
              refine wpAny_take (i := 3) (v := .slice (some ⟨g, 0, none⟩) q cC) rfl (by kernel_rfl) (by kernel_rfl) (by kernel_rfl) (fun _ _ _ h => h) (Or.inl ⟨by rfl, fun w9 => by (go_simp; try with_reducible rfl)⟩) ?_
              change wpAny _ _ _ _ _ _ (Act.put _ (some 78) _) _; dsimp only [Act.put]; simp only [List.setIfInBounds_toArray, List.set_cons_succ, List.set_cons_zero]
              refine wpAny_take (i := 4) (v := .slice (some ⟨g, 0, none⟩) N cC) rfl (by kernel_rfl) (by kernel_rfl) (by kernel_rfl) (fun _ _ _ h => h) (Or.inl ⟨by rfl, fun w9 => by (go_simp; try with_reducible rfl)⟩) ?_
              change wpAny _ _ _ _ _ _ (Act.put _ (some 79) _) _; dsimp only [Act.put]; simp only [List.setIfInBounds_toArray, List.set_cons_succ, List.set_cons_zero]
              refine wpAny_take (i := 5) (v := .int .i64 (k : Int)) rfl (by kernel_rfl) (by kernel_rfl) (by kernel_rfl) (fun _ _ _ h => h) (Or.inl ⟨by rfl, fun w9 => by (go_simp; try with_reducible rfl)⟩) ?_
              change wpAny _ _ _ _ _ _ (Act.put _ (some 80) _) _; dsimp only [Act.put]; simp only [List.setIfInBounds_toArray, List.set_cons_succ, List.set_cons_zero]
              refine wpAny_take (i := 6) (v := .int .i64 (t : Int)) rfl (by kernel_rfl) (by kernel_rfl) (by kernel_rfl) (fun _ _ _ h => h) (Or.inl ⟨by rfl, fun w9 => by (go_simp; try with_reducible rfl)⟩) ?_
              change wpAny _ _ _ _ _ _ (Act.put _ (some 81) _) _; dsimp only [Act.put]; simp only [List.setIfInBounds_toArray, List.set_cons_succ, List.set_cons_zero]
              refine wpAny_take (i := 7) (v := .slice (some ⟨g, t * 2, none⟩) (N - t) (cC - t)) rfl (by kernel_rfl) (by kernel_rfl) (by kernel_rfl) (fun _ _ _ h => h) (Or.inl ⟨by rfl, fun w9 => by (go_simp; try with_reducible rfl)⟩) ?_
              change wpAny _ _ _ _ _ _ (Act.put _ (some 82) _) _; dsimp only [Act.put]; simp only [List.setIfInBounds_toArray, List.set_cons_succ, List.set_cons_zero]
              refine wpAny_ready (rs := [8]) (by kernel_rfl) (by simp) ?_
              refine AllReady.cons rfl (fun K hK => ?_) AllReady.nil
              refine step_append_ownA rfl (.tmp 78) (.tmp 82) 36 rfl w.heap.size 70 iR (.agg #[.int .i64 0, .int .i64 0]) 2 16 Try.underlying36 hiR hzR hsR hbR rfl (by decide) (.slice (some ⟨g, 0, none⟩) q cC) (q) ((L.take q).flatMap rgL) (by first | rfl | simp [Act.eval, Act.put]) (World.ownsRow.drew HPW) (some ⟨g, t * 2, none⟩) (N - t) (cC - t) ((L.drop t).flatMap rgL) (by first | rfl | simp [Act.eval, Act.put]) (fun h => by cases h) (by rw [rg_flat_len, List.length_drop, HLW]) hnD (by first | exact rg_ones _ | exact two_one _ _ | exact (fun u hu => (by cases hu))) (by unfold maxLen; omega) (by omega) hbW.size ?_
              intro v3 w3 hown3 hgr3
              have hb3 := hbW.trans ((below_grown HPW ⟨hgr3.os, hgr3.tape, hgr3.output, hgr3.size, hgr3.block⟩ hbW.size).mono (Nat.le_refl _))
              refine hK _ _ ?_
              clear hK K
              change wpAny _ _ _ _ _ _ (Act.put _ (some 83) _) _; dsimp only [Act.put]; simp only [List.setIfInBounds_toArray, List.set_cons_succ, List.set_cons_zero]
              refine wpAny_take (i := 9) (v := v3) rfl (by kernel_rfl) (by kernel_rfl) (by kernel_rfl) (fun _ _ _ h => h) (Or.inl ⟨by rfl, fun w9 => by (go_simp; try with_reducible rfl)⟩) ?_
              change wpAny _ _ _ _ _ _ (Act.put _ (some 5) _) _; dsimp only [Act.put]; simp only [List.setIfInBounds_toArray, List.set_cons_succ, List.set_cons_zero]
              refine wpAny_done (by kernel_rfl) ?_ _
              have hown3 : w3.ownsRow w.heap.size 70 2 v3 (q + (L.drop t).length) ((L.take q).flatMap rgL ++ (L.drop t).flatMap rgL) := by rw [List.length_drop, HLW]; exact hown3
              rw [← List.flatMap_append, HLT.out, HLD.out, List.append_assoc] at hown3
              go_wp2
              go_meet
              case rel => exact ⟨(x, c2), C', HM, hown3, hb3⟩
          · have e8 : (c1 == x + 1) = false := by rw [beq_eq_false_iff_ne]; exact h1
            have e8d : decide (c1 = x + 1) = false := decide_eq_false h1
            have HM := Lib.hid (show midR ((c1, c2) :: C') x = ((x, x), (c1, c2) :: C') by unfold midR; simp only []; rw [if_neg h1])
            have HLN := Lib.hid (show q + ((c1, c2) :: C').length = N by rw [List.length_cons]; omega)
            go_wp2
            go_meet
            case rel => exact ⟨(x, x), (c1, c2) :: C', HM, by rw [HLN.out]; exact hown, hbel⟩
      case rest =>
        clear hown hbel hNc hcm q4 k4 hN
        obtain ⟨⟨m1, m2⟩, C2, HM, hown, hbel⟩ := hcut
        have hC2 : C2.length ≤ n - k := by
          rw [← hCl]
          have h := HM.out
          unfold midR at h
          cases C with
          | nil => simp only [Prod.mk.injEq] at h; rw [← h.2]; exact Nat.le_refl _
          | cons c C' =>
            simp only [] at h
            split at h
            · simp only [Prod.mk.injEq] at h; rw [← h.2, List.length_cons]; omega
            · simp only [Prod.mk.injEq] at h; rw [← h.2]; exact Nat.le_refl _
        obtain ⟨N2, hN2⟩ : ∃ N2, q + C2.length = N2 := ⟨_, rfl⟩
        rw [hN2] at hown
        obtain ⟨g2, cD, hv5⟩ := own_formS hown (by omega)
        subst hv5
        obtain ⟨_, hNc, hcm⟩ : ∃ z : Nat, N2 ≤ cD ∧ cD ≤ maxLen := by
          obtain ⟨a9, c9, e9, _, h1, h2, _⟩ := own_sliceN hown
          simp only [Value.slice.injEq] at e9
          obtain ⟨_, _, rfl⟩ := e9
          exact ⟨0, h1, h2⟩
        unfold maxLen at hcm
        have hqN : q ≤ N2 := by omega
        have q4 : (q : Int) ≤ (cD : Int) := by omega
        have q5 : (q : Int) ≤ (N2 : Int) := by omega
        have k5 : (k : Int) ≤ (cD : Int) := by omega
        have k4 : (k : Int) < (N2 : Int) := by omega
        rw [HM.out] at HF
        rcases List.eq_nil_or_concat A with hAe | ⟨A', a, hAe⟩
        · subst hAe
          obtain rfl : k = 0 := hAl.symm
          have HE := Lib.hid (show addR l x = (m1, m2) :: C2 from HF.out)
          have HEL := Lib.hid (show ((m1, m2) :: C2).length = N2 by rw [List.length_cons]; omega)
          clear HF HM
          go_wp2
          go_ret
          exact ⟨_, rfl, by rw [HE.out, HEL.out]; exact hown, hbel⟩
        rw [List.concat_eq_append] at hAe
        subst hAe
        obtain ⟨a1, a2⟩ := a
        obtain ⟨kp, hkp⟩ : ∃ kp, A'.length = kp := ⟨_, rfl⟩
        have hk1 : kp + 1 = k := by rw [← hAl, ← hkp, List.length_append]; rfl
        have hsub : (k : Int) - 1 = (kp : Int) := by omega
        have p0 : (0 : Int) ≤ (kp : Int) := by omega
        have p2 : ((kp : Nat) : Int).toNat = kp := by omega
        have p4 : (kp : Int) < (N2 : Int) := by omega
        have dk : decide ((0 : Int) < (k : Int)) = true := decide_eq_true (by omega)
        have dkn : decide (0 < k) = true := decide_eq_true (by omega)
        obtain ⟨_, ka⟩ := rg_cellL (A := A') (r := (a1, a2)) (C := (m1, m2) :: C2) (by rw [List.append_assoc] at hown; exact hown) hkp
        obtain ⟨_, km⟩ := rg_cellL (A := A' ++ [(a1, a2)]) (r := (m1, m2)) (C := C2) hown hAl
        simp only [] at ka km
        have kf := hown.frozenAt (kp * 2 + 1)
        have hf9 := HF.out
        simp only [List.getLast?_append, List.getLast?_singleton, Option.some_or, List.dropLast_concat] at hf9
        by_cases h1 : a2 = x - 1
        · rw [if_pos h1] at hf9
          have HE := Lib.hid hf9
          have e8 : (a2 == x - 1) = true := by rw [beq_iff_eq]; exact h1
          have e8d : decide (a2 = x - 1) = true := decide_eq_true h1
          clear hf9 HF HM
          go_upto_region 13 with fail
          refine wp_nameE _ (fun W hW => ?_)
          obtain ⟨hS, hgS⟩ := hown.stored (kp * 2 + 1) (.int .i64 m2)
          rw [← hW] at hS hgS
          rw [List.append_assoc] at hS
          rw [show ([(a1, a2)] ++ (m1, m2) :: C2) = (a1, a2) :: (m1, m2) :: C2 from rfl, rg_setL A' (a1, a2) _ m2 hkp] at hS
          have hbW := hbel.trans (below_grown hown hgS hbel.size)
          obtain ⟨L, hL⟩ : ∃ L, A' ++ (a1, m2) :: (m1, m2) :: C2 = L := ⟨_, rfl⟩
          simp only [] at hS
          rw [hL] at hS
          have HLW : L.length = N2 := by rw [← hL, List.length_append, List.length_cons, List.length_cons]; omega
          have HPW := rg_own_prefix hS HLW (p := k) (by omega)
          have HTW := rg_own_row hS
          have HLT := Lib.hid (show L.take k = A' ++ [(a1, m2)] by rw [← hL, show A' ++ (a1, m2) :: (m1, m2) :: C2 = (A' ++ [(a1, m2)]) ++ (m1, m2) :: C2 by rw [List.append_assoc]; rfl, List.take_left' (by rw [List.length_append, hkp]; exact hk1)])
          have HLD := Lib.hid (show L.drop q = C2 by rw [← hL, show A' ++ (a1, m2) :: (m1, m2) :: C2 = (A' ++ [(a1, m2), (m1, m2)]) ++ C2 by rw [List.append_assoc]; rfl, List.drop_left' (by rw [List.length_append, hkp]; show kp + 2 = q; omega)])
          have HEL := Lib.hid (show (A' ++ [(a1, m2)] ++ C2).length = k + C2.length by rw [List.length_append, List.length_append, hkp]; show kp + 1 + C2.length = _; omega)
          clear hW hgS hS hL ka km kf e8 e8d h1 hown hbel hgl
          by_cases hct : cD = q
          · have hNt : q = N2 := by omega
            have hct2 : q = cD := hct.symm
            have HDZ : L.drop q = [] := List.drop_of_length_le (by omega)
            clear hct
            subst hNt hct2
            refine wp_region_any (by kernel_rfl) ?_
            change wpAny _ _ _ _ _ _ _ (World.drew _)
            refine wpAny_take (i := 0) (v := .slice (some ⟨g2, 0, none⟩) q q) rfl (by kernel_rfl) (by kernel_rfl) (by kernel_rfl) (fun _ _ _ h => h) (Or.inl ⟨by rfl, fun w9 => by (go_simp; try with_reducible rfl)⟩) ?_
            change wpAny _ _ _ _ _ _ (Act.put _ (some 107) _) _; dsimp only [Act.put]; simp only [List.setIfInBounds_toArray, List.set_cons_succ, List.set_cons_zero]
            refine wpAny_take (i := 1) (v := .int .i64 (k : Int)) rfl (by kernel_rfl) (by kernel_rfl) (by kernel_rfl) (fun _ _ _ h => h) (Or.inl ⟨by rfl, fun w9 => by (go_simp; try with_reducible rfl)⟩) ?_
            change wpAny _ _ _ _ _ _ (Act.put _ (some 108) _) _; dsimp only [Act.put]; simp only [List.setIfInBounds_toArray, List.set_cons_succ, List.set_cons_zero]
            refine wpAny_take (i := 2) (v := .slice (some ⟨g2, 0, none⟩) k q) rfl (by kernel_rfl) (by kernel_rfl) (by kernel_rfl) (fun _ _ _ h => h) (Or.inl ⟨by rfl, fun w9 => by (go_simp; try with_reducible rfl)⟩) ?_
            change wpAny _ _ _ _ _ _ (Act.put _ (some 109) _) _; dsimp only [Act.put]; simp only [List.setIfInBounds_toArray, List.set_cons_succ, List.set_cons_zero]
            refine wpAny_take (i := 3) (v := .slice (some ⟨g2, 0, none⟩) q q) rfl (by kernel_rfl) (by kernel_rfl) (by kernel_rfl) (fun _ _ _ h => h) (Or.inl ⟨by rfl, fun w9 => by (go_simp; try with_reducible rfl)⟩) ?_
            change wpAny _ _ _ _ _ _ (Act.put _ (some 110) _) _; dsimp only [Act.put]; simp only [List.setIfInBounds_toArray, List.set_cons_succ, List.set_cons_zero]
            refine wpAny_take (i := 4) (v := .int .i64 (k : Int)) rfl (by kernel_rfl) (by kernel_rfl) (by kernel_rfl) (fun _ _ _ h => h) (Or.inl ⟨by rfl, fun w9 => by (go_simp; try with_reducible rfl)⟩) ?_
            change wpAny _ _ _ _ _ _ (Act.put _ (some 111) _) _; dsimp only [Act.put]; simp only [List.setIfInBounds_toArray, List.set_cons_succ, List.set_cons_zero]
            refine wpAny_take (i := 5) (v := .int .i64 (q : Int)) rfl (by kernel_rfl) (by kernel_rfl) (by kernel_rfl) (fun _ _ _ h => h) (Or.inl ⟨by rfl, fun w9 => by (go_simp; try with_reducible rfl)⟩) ?_
            change wpAny _ _ _ _ _ _ (Act.put _ (some 112) _) _; dsimp only [Act.put]; simp only [List.setIfInBounds_toArray, List.set_cons_succ, List.set_cons_zero]
            refine wpAny_take (i := 6) (v := .slice (some ⟨g2, 0, none⟩) (0) (0)) rfl (by kernel_rfl) (by kernel_rfl) (by kernel_rfl) (fun _ _ _ h => h) (Or.inl ⟨by rfl, fun w9 => by (go_simp; try with_reducible rfl)⟩) ?_
            change wpAny _ _ _ _ _ _ (Act.put _ (some 113) _) _; dsimp only [Act.put]; simp only [List.setIfInBounds_toArray, List.set_cons_succ, List.set_cons_zero]
            refine wpAny_ready (rs := [7]) (by kernel_rfl) (by simp) ?_
            refine AllReady.cons rfl (fun K hK => ?_) AllReady.nil
            refine step_append_ownA rfl (.tmp 109) (.tmp 113) 36 rfl w.heap.size 70 iR (.agg #[.int .i64 0, .int .i64 0]) 2 16 Try.underlying36 hiR hzR hsR hbR rfl (by decide) (.slice (some ⟨g2, 0, none⟩) k q) (k) ((L.take k).flatMap rgL) (by first | rfl | simp [Act.eval, Act.put]) (World.ownsRow.drew HPW) (some ⟨g2, 0, none⟩) (0) (0) ([]) (by first | rfl | simp [Act.eval, Act.put]) (fun h => by cases h) rfl (fun ad e j u hu => (by cases hu)) (by first | exact rg_ones _ | exact two_one _ _ | exact (fun u hu => (by cases hu))) (by unfold maxLen; omega) (by omega) hbW.size ?_
            intro v3 w3 hown3 hgr3
            have hb3 := hbW.trans ((below_grown HPW ⟨hgr3.os, hgr3.tape, hgr3.output, hgr3.size, hgr3.block⟩ hbW.size).mono (Nat.le_refl _))
            refine hK _ _ ?_
            clear hK K
            change wpAny _ _ _ _ _ _ (Act.put _ (some 114) _) _; dsimp only [Act.put]; simp only [List.setIfInBounds_toArray, List.set_cons_succ, List.set_cons_zero]
            refine wpAny_take (i := 8) (v := v3) rfl (by kernel_rfl) (by kernel_rfl) (by kernel_rfl) (fun _ _ _ h => h) (Or.inl ⟨by rfl, fun w9 => by (go_simp; try with_reducible rfl)⟩) ?_
            change wpAny _ _ _ _ _ _ (Act.put _ (some 5) _) _; dsimp only [Act.put]; simp only [List.setIfInBounds_toArray, List.set_cons_succ, List.set_cons_zero]
            refine wpAny_done (by kernel_rfl) ?_ _
            have hown3 : w3.ownsRow w.heap.size 70 2 v3 (k + (L.drop q).length) ((L.take k).flatMap rgL ++ (L.drop q).flatMap rgL) := by rw [HDZ]; exact hown3
            rw [← List.flatMap_append, HLT.out, HLD.out] at hown3
            go_wp2
            go_ret
            exact ⟨_, rfl, by rw [HE.out, HEL.out]; exact hown3, hb3⟩
          · have hnD := rg_drop_at HTW (k := q) (by omega)
            refine wp_region_any (by kernel_rfl) ?_
            change wpAny _ _ _ _ _ _ _ (World.drew _)
            refine wpAny_take (i := 0) (v := .slice (some ⟨g2, 0, none⟩) N2 cD) rfl (by kernel_rfl) (by kernel_rfl) (by kernel_rfl) (fun _ _ _ h => h) (Or.inl ⟨by rfl, fun w9 => by (go_simp; try with_reducible rfl)⟩) ?_
            change wpAny _ _ _ _ _ _ (Act.put _ (some 107) _) _; dsimp only [Act.put]; simp only [List.setIfInBounds_toArray, List.set_cons_succ, List.set_cons_zero]
            refine wpAny_take (i := 1) (v := .int .i64 (k : Int)) rfl (by kernel_rfl) (by kernel_rfl) (by kernel_rfl) (fun _ _ _ h => h) (Or.inl ⟨by rfl, fun w9 => by (go_simp; try with_reducible rfl)⟩) ?_
            change wpAny _ _ _ _ _ _ (Act.put _ (some 108) _) _; dsimp only [Act.put]; simp only [List.setIfInBounds_toArray, List.set_cons_succ, List.set_cons_zero]
            refine wpAny_take (i := 2) (v := .slice (some ⟨g2, 0, none⟩) k cD) rfl (by kernel_rfl) (by kernel_rfl) (by kernel_rfl) (fun _ _ _ h => h) (Or.inl ⟨by rfl, fun w9 => by (go_simp; try with_reducible rfl)⟩) ?_
            change wpAny _ _ _ _ _ _ (Act.put _ (some 109) _) _; dsimp only [Act.put]; simp only [List.setIfInBounds_toArray, List.set_cons_succ, List.set_cons_zero]
            refine wpAny_take (i := 3) (v := .slice (some ⟨g2, 0, none⟩) N2 cD) rfl (by kernel_rfl) (by kernel_rfl) (by kernel_rfl) (fun _ _ _ h => h) (Or.inl ⟨by rfl, fun w9 => by (go_simp; try with_reducible rfl)⟩) ?_
            change wpAny _ _ _ _ _ _ (Act.put _ (some 110) _) _; dsimp only [Act.put]; simp only [List.setIfInBounds_toArray, List.set_cons_succ, List.set_cons_zero]
            refine wpAny_take (i := 4) (v := .int .i64 (k : Int)) rfl (by kernel_rfl) (by kernel_rfl) (by kernel_rfl) (fun _ _ _ h => h) (Or.inl ⟨by rfl, fun w9 => by (go_simp; try with_reducible rfl)⟩) ?_
            change wpAny _ _ _ _ _ _ (Act.put _ (some 111) _) _; dsimp only [Act.put]; simp only [List.setIfInBounds_toArray, List.set_cons_succ, List.set_cons_zero]
            refine wpAny_take (i := 5) (v := .int .i64 (q : Int)) rfl (by kernel_rfl) (by kernel_rfl) (by kernel_rfl) (fun _ _ _ h => h) (Or.inl ⟨by rfl, fun w9 => by (go_simp; try with_reducible rfl)⟩) ?_
            change wpAny _ _ _ _ _ _ (Act.put _ (some 112) _) _; dsimp only [Act.put]; simp only [List.setIfInBounds_toArray, List.set_cons_succ, List.set_cons_zero]
            refine wpAny_take (i := 6) (v := .slice (some ⟨g2, q * 2, none⟩) (N2 - q) (cD - q)) rfl (by kernel_rfl) (by kernel_rfl) (by kernel_rfl) (fun _ _ _ h => h) (Or.inl ⟨by rfl, fun w9 => by (go_simp; try with_reducible rfl)⟩) ?_
            change wpAny _ _ _ _ _ _ (Act.put _ (some 113) _) _; dsimp only [Act.put]; simp only [List.setIfInBounds_toArray, List.set_cons_succ, List.set_cons_zero]
            refine wpAny_ready (rs := [7]) (by kernel_rfl) (by simp) ?_
            refine AllReady.cons rfl (fun K hK => ?_) AllReady.nil
            refine step_append_ownA rfl (.tmp 109) (.tmp 113) 36 rfl w.heap.size 70 iR (.agg #[.int .i64 0, .int .i64 0]) 2 16 Try.underlying36 hiR hzR hsR hbR rfl (by decide) (.slice (some ⟨g2, 0, none⟩) k cD) (k) ((L.take k).flatMap rgL) (by first | rfl | simp [Act.eval, Act.put]) (World.ownsRow.drew HPW) (some ⟨g2, q * 2, none⟩) (N2 - q) (cD - q) ((L.drop q).flatMap rgL) (by first | rfl | simp [Act.eval, Act.put]) (fun h => by cases h) (by rw [rg_flat_len, List.length_drop, HLW]) hnD (by first | exact rg_ones _ | exact two_one _ _ | exact (fun u hu => (by cases hu))) (by unfold maxLen; omega) (by omega) hbW.size ?_
            intro v3 w3 hown3 hgr3
            have hb3 := hbW.trans ((below_grown HPW ⟨hgr3.os, hgr3.tape, hgr3.output, hgr3.size, hgr3.block⟩ hbW.size).mono (Nat.le_refl _))
            refine hK _ _ ?_
            clear hK K
            change wpAny _ _ _ _ _ _ (Act.put _ (some 114) _) _; dsimp only [Act.put]; simp only [List.setIfInBounds_toArray, List.set_cons_succ, List.set_cons_zero]
            refine wpAny_take (i := 8) (v := v3) rfl (by kernel_rfl) (by kernel_rfl) (by kernel_rfl) (fun _ _ _ h => h) (Or.inl ⟨by rfl, fun w9 => by (go_simp; try with_reducible rfl)⟩) ?_
            change wpAny _ _ _ _ _ _ (Act.put _ (some 5) _) _; dsimp only [Act.put]; simp only [List.setIfInBounds_toArray, List.set_cons_succ, List.set_cons_zero]
            refine wpAny_done (by kernel_rfl) ?_ _
            have hown3 : w3.ownsRow w.heap.size 70 2 v3 (k + (L.drop q).length) ((L.take k).flatMap rgL ++ (L.drop q).flatMap rgL) := by rw [List.length_drop, HLW]; exact hown3
            rw [← List.flatMap_append, HLT.out, HLD.out] at hown3
            go_wp2
            go_ret
            exact ⟨_, rfl, by rw [HE.out, HEL.out]; exact hown3, hb3⟩
        · rw [if_neg h1] at hf9
          have HE := Lib.hid hf9
          have HEL := Lib.hid (show (A' ++ [(a1, a2)] ++ [(m1, m2)] ++ C2).length = N2 by rw [List.length_append, List.length_append, hAl]; show k + 1 + C2.length = _; omega)
          have HEF := Lib.hid (show A' ++ [(a1, a2)] ++ [(m1, m2)] ++ C2 = A' ++ [(a1, a2)] ++ (m1, m2) :: C2 by rw [List.append_assoc (A' ++ [(a1, a2)])]; rfl)
          have e8 : (a2 == x - 1) = false := by rw [beq_eq_false_iff_ne]; exact h1
          have e8d : decide (a2 = x - 1) = false := decide_eq_false h1
          clear hf9 HF HM
          go_wp2
          go_ret
          exact ⟨_, rfl, by rw [HE.out, HEL.out, HEF.out]; exact hown, hbel⟩
end Go.Proofs.Ytdlngadcgcgenaa
