/- Copies of leaves and of hashes; a proof's copy. -/
import Derived.Test.YthipnkbfdkmhaaaPf5
import Derived.Deep.MidRow
import Derived.LoopTactic
import Derived.BigFrame
import Derived.Lib.SliceRun
import Derived.WalkKit
import Derived.ProofKit
import Derived.Handy
import Derived.Below
import Derived.Lib.Hide
import Derived.IntWalk
import Derived.Outline
import Derived.WalkLawsBesides
import Derived.WalkSpells
namespace Go.Proofs.Ythipnkbfdkmhaaa
open Go.RowKit
attribute [local go_sem] strV
set_option linter.unusedVariables false
set_option maxRecDepth 100000 in
set_option maxHeartbeats 3200000 in
theorem cloneHs_any (a : Option Addr) (n c : Nat) (xs : List H32) (w : World) (hr : RowAt w a (xs.flatMap H32.cells)) (hn : xs.length = n) (hm : n ≤ maxLen) (h40 : n ≤ 1073741824) :
    Calls Try.prog 112 #[.slice a n c] w fun e w' => ∃ v', e = .returned v' ∧ w'.ownsRow w.heap.size 23 32 v' n (xs.flatMap H32.cells) ∧ Below w.heap.size w w' := by
  have q22 : ∀ (w : World) (a : Option Addr) (n c n' c' : Nat), (binOp .eql 109 (.slice a n c) (.slice none n' c')).run Try.prog w = .ok (.bool a.isNone) w := fun w a n c n' c' => Lib.run_eql_slice_nil w _ _ a n c n' c' Try.underlying109
  have hl : (xs.flatMap H32.cells).length = n * 32 := by rw [flat_length H32.cells 32 H32.cells_len, hn]
  have h1 : ∀ u ∈ xs.flatMap H32.cells, u.oneCell' = true := fun u hu => by
    obtain ⟨x, _, hx⟩ := List.mem_flatMap.1 hu
    exact Lib.byteCells_one x.1 u hx
  obtain ⟨news, hnw⟩ : ∃ l, xs.flatMap H32.cells = l := ⟨_, rfl⟩
  rw [hnw] at hr hl h1 ⊢
  obtain ⟨i0, hi, hz0', hz1, hz2⟩ := info_parts Try.infoHs
  cases a with
  | none =>
    have h0 : news = [] := by rcases hr with h | ⟨b, off, h, _⟩; exact h; cases h
    subst h0
    obtain rfl : n = 0 := by simp at hl; omega
    go_enter Try.func112, Try.ntmps112
    go_wp2
    go_ret
    exact ⟨_, rfl, ⟨rfl, .inl ⟨rfl, rfl⟩⟩, Below.refl _ _⟩
  | some ad =>
    have hc : ∀ j u, news[j]? = some u → w.cell? (ad.add j) = some u := fun j u hj => by
      rcases hr with h | ⟨b, off, h, _, hq⟩
      · rw [h] at hj; cases hj
      · simp only [Option.some.injEq] at h
        subst h
        rw [Addr.add_mid, hq j (List.getElem?_eq_some_iff.1 hj).1, hj]
    have A := Lib.hid hc
    have H1 := Lib.hid h1
    clear hc hr h1
    go_enter Try.func112, Try.ntmps112
    go_wp2_with (at_builtin; refine wpList_append_own _ rfl _ _ 109 rfl w.heap.size 23 i0 (.agg #[.int .u8 0, .int .u8 0, .int .u8 0, .int .u8 0, .int .u8 0, .int .u8 0, .int .u8 0, .int .u8 0, .int .u8 0, .int .u8 0, .int .u8 0, .int .u8 0, .int .u8 0, .int .u8 0, .int .u8 0, .int .u8 0, .int .u8 0, .int .u8 0, .int .u8 0, .int .u8 0, .int .u8 0, .int .u8 0, .int .u8 0, .int .u8 0, .int .u8 0, .int .u8 0, .int .u8 0, .int .u8 0, .int .u8 0, .int .u8 0, .int .u8 0, .int .u8 0]) 32 32 Try.underlying109 hi hz0' hz1 hz2 rfl (by decide) _ _ _ rfl (World.ownsRow_made w #[] 0 (Nat.le_refl _) (Nat.zero_le _) (by simp)) ad n c news rfl ?qc1 ?qc2 ?qc3 ?qc4 ?qc5 ?qc6 ?_)
    case qc1 => exact hl
    case qc2 =>
      intro j u hj
      exact Lib.cell?_alloc_some _ (A.out j u hj)
    case qc3 => exact H1.out
    case qc4 => rw [Nat.zero_add]; exact hm
    case qc5 => rw [Nat.zero_add]; omega
    case qc6 => simp
    intro v' w1 hown hgrow hnil
    go_wp2
    go_ret
    exact ⟨v', rfl, by simpa using hown, ((Below.refl _ w).alloc (Nat.le_refl _) _).grown hgrow (by simp) (by intro k hk; simp [Value.ownBlock] at hk; omega)⟩
set_option maxRecDepth 100000 in
set_option maxHeartbeats 3200000 in
theorem cloneLf_any (a : Option Addr) (n c : Nat) (xs : List LeafV) (w : World) (hr : RowAt w a (xs.flatMap LeafV.cells)) (hn : xs.length = n) (hm : n ≤ maxLen) (h40 : n ≤ 1073741824) :
    Calls Try.prog 111 #[.slice a n c] w fun e w' => ∃ v', e = .returned v' ∧ w'.ownsRow w.heap.size 111 4 v' n (xs.flatMap LeafV.cells) ∧ Below w.heap.size w w' := by
  have q22 : ∀ (w : World) (a : Option Addr) (n c n' c' : Nat), (binOp .eql 30 (.slice a n c) (.slice none n' c')).run Try.prog w = .ok (.bool a.isNone) w := fun w a n c n' c' => Lib.run_eql_slice_nil w _ _ a n c n' c' Try.underlying30
  have hl : (xs.flatMap LeafV.cells).length = n * 4 := by rw [flat_length LeafV.cells 4 LeafV.cells_len, hn]
  have h1 : ∀ u ∈ xs.flatMap LeafV.cells, u.oneCell' = true := fun u hu => by
    obtain ⟨x, _, hx⟩ := List.mem_flatMap.1 hu
    exact by simp [LeafV.cells] at hx; rcases hx with rfl | rfl | rfl | rfl <;> rfl
  obtain ⟨news, hnw⟩ : ∃ l, xs.flatMap LeafV.cells = l := ⟨_, rfl⟩
  rw [hnw] at hr hl h1 ⊢
  obtain ⟨i0, hi, hz0', hz1, hz2⟩ := info_parts Try.infoLf
  cases a with
  | none =>
    have h0 : news = [] := by rcases hr with h | ⟨b, off, h, _⟩; exact h; cases h
    subst h0
    obtain rfl : n = 0 := by simp at hl; omega
    go_enter Try.func111, Try.ntmps111
    go_wp2
    go_ret
    exact ⟨_, rfl, ⟨rfl, .inl ⟨rfl, rfl⟩⟩, Below.refl _ _⟩
  | some ad =>
    have hc : ∀ j u, news[j]? = some u → w.cell? (ad.add j) = some u := fun j u hj => by
      rcases hr with h | ⟨b, off, h, _, hq⟩
      · rw [h] at hj; cases hj
      · simp only [Option.some.injEq] at h
        subst h
        rw [Addr.add_mid, hq j (List.getElem?_eq_some_iff.1 hj).1, hj]
    have A := Lib.hid hc
    have H1 := Lib.hid h1
    clear hc hr h1
    go_enter Try.func111, Try.ntmps111
    go_wp2_with (at_builtin; refine wpList_append_own _ rfl _ _ 30 rfl w.heap.size 111 i0 (.agg #[.string ⟨#[]⟩, .string ⟨#[]⟩, .int .i64 0, .slice none 0 0]) 4 64 Try.underlying30 hi hz0' hz1 hz2 rfl (by decide) _ _ _ rfl (World.ownsRow_made w #[] 0 (Nat.le_refl _) (Nat.zero_le _) (by simp)) ad n c news rfl ?qc1 ?qc2 ?qc3 ?qc4 ?qc5 ?qc6 ?_)
    case qc1 => exact hl
    case qc2 =>
      intro j u hj
      exact Lib.cell?_alloc_some _ (A.out j u hj)
    case qc3 => exact H1.out
    case qc4 => rw [Nat.zero_add]; exact hm
    case qc5 => rw [Nat.zero_add]; omega
    case qc6 => simp
    intro v' w1 hown hgrow hnil
    go_wp2
    go_ret
    exact ⟨v', rfl, by simpa using hown, ((Below.refl _ w).alloc (Nat.le_refl _) _).grown hgrow (by simp) (by intro k hk; simp [Value.ownBlock] at hk; omega)⟩
theorem flat_set {α : Type} (f : α → List Value) (c : Nat) (hf : ∀ x, (f x).length = c) : ∀ (l : List α) (k j : Nat) (y : α) (v : Value) (hk : k < l.length), j < c → f y = (f l[k]).set j v → (l.flatMap f).set (k * c + j) v = (l.set k y).flatMap f
  | [], k, j, y, v, hk, _, _ => by simp at hk
  | x :: l, 0, j, y, v, hk, hj, hy => by
    rw [List.set_cons_zero, List.flatMap_cons, List.flatMap_cons, Nat.zero_mul, Nat.zero_add, List.set_append_left _ _ (by rw [hf]; exact hj), hy]
    rfl
  | x :: l, k + 1, j, y, v, hk, hj, hy => by
    rw [List.set_cons_succ, List.flatMap_cons, List.flatMap_cons, Nat.succ_mul, List.set_append_right _ _ (by rw [hf]; omega), hf, show k * c + c + j - c = k * c + j by omega, flat_set f c hf l k j y v (by simpa using hk) hj hy]
theorem map_set_d : ∀ (l : List LeafV) (k : Nat) (y : LeafV) (hk : k < l.length), y.d = l[k].d → (l.set k y).map LeafV.d = l.map LeafV.d
  | [], k, y, hk, _ => by simp at hk
  | x :: l, 0, y, hk, h => by rw [List.set_cons_zero, List.map_cons, List.map_cons, h]; rfl
  | x :: l, k + 1, y, hk, h => by rw [List.set_cons_succ, List.map_cons, List.map_cons, map_set_d l k y (by simpa using hk) h]
theorem SameT.cellT {T e : TypeId} {B g k : Nat} {w : World} {cur : Array Value} {fz : Nat × Nat} {v : Value} (hg : w.heap[g]? = some (.cells cur e fz)) (hT : T ≠ e) : SameT T B w (w.setCell ⟨g, k, none⟩ v) := by
  refine ⟨by rw [World.size_setCell]; exact Nat.le_refl _, fun j _ cur9 fz9 h => ?_⟩
  by_cases hj : j = g
  · subst hj
    rw [h] at hg
    simp only [Option.some.injEq, Obj.cells.injEq] at hg
    exact absurd hg.2.1 hT
  · rw [row_oth' w g k j v hj]; exact h
theorem own_cells {w : World} {base : Nat} {e : TypeId} {size n : Nat} {v : Value} {xs : List Value} (h : w.ownsRow base e size v n xs) (hn : 0 < n) :
    ∃ g cap cur, v = .slice (some ⟨g, 0, none⟩) n cap ∧ base ≤ g ∧ w.heap[g]? = some (.cells cur e (0, 0)) ∧ n ≤ cap ∧ cap ≤ maxLen ∧ cur.size = cap * size ∧ cur.toList.take (n * size) = xs := by
  rcases h.2 with ⟨_, h⟩ | h
  · omega
  · exact h
theorem take_row {w : World} {g : Nat} {cur : Array Value} {e : TypeId} {vs : List Value} {N : Nat} (h : w.heap[g]? = some (.cells cur e (0, 0))) (ht : cur.toList.take N = vs) : RowAt w (some ⟨g, 0, none⟩) vs := by
  refine .inr ⟨g, 0, rfl, (Array.getElem?_eq_some_iff.1 h).1, fun j hj => ?_⟩
  rw [← ht, List.length_take] at hj
  rw [Nat.zero_add, cell_heap h, ← ht, List.getElem?_take_of_lt (by omega), Array.getElem?_toList]
/-- Behind the copying of a proof. -/
def clonePost (w : World) (ct : Int) (xs : List LeafV) (e : Ending) (w' : World) : Prop :=
  ∃ (a : Option Addr) (n c : Nat) (ys : List LeafV), e = .returned (.agg #[.int .i64 ct, .slice a n c]) ∧ ys.map LeafV.d = xs.map LeafV.d ∧ lvsHeld w' w.heap.size a ys ∧ ys.length = n ∧ n ≤ c ∧ c ≤ maxLen ∧ Below w.heap.size w w'
set_option maxRecDepth 100000 in
set_option maxHeartbeats 6400000 in
theorem clone_any (ct : Int) (a : Option Addr) (n c : Nat) (xs : List LeafV) (w : World) (h : LvsAt w a xs) (hn : xs.length = n) (hn5 : n ≤ 1000) (hp : ∀ x ∈ xs, x.path.length ≤ 1000) :
    Calls Try.prog 75 #[.agg #[.int .i64 ct, .slice a n c]] w fun e w' => clonePost w ct xs e w' := by
  have hp0 := al2_0 w (.cells #[.int .i64 ct, .slice a n c] 32) (.cells #[.int .i64 0, .slice none 0 0] 32)
  have hz0 := al2_1 w (.cells #[.int .i64 ct, .slice a n c] 32) (.cells #[.int .i64 0, .slice none 0 0] 32)
  have hbA := al2_below w (.cells #[.int .i64 ct, .slice a n c] 32) (.cells #[.int .i64 0, .slice none 0 0] 32)
  have HN := Lib.hid hn
  go_enter Try.func75, Try.ntmps75
  go_upto_region 1 with fail
  refine wp_nameE _ (fun W1 hX => ?_)
  have hP : W1.heap[w.heap.size]? = some (.cells #[.int .i64 ct, .slice a n c] 32 (0, 0)) := by rw [hX]; exact hp0
  have hZ : W1.heap[w.heap.size + 1]? = some (.cells #[.int .i64 0, .slice none 0 0] 32 (0, 0)) := by rw [hX]; exact hz0
  have hbel : Below w.heap.size w W1 := by rw [hX]; exact hbA
  clear hX hp0 hz0 hbA
  have hpl : w.heap.size < W1.heap.size := (Array.getElem?_eq_some_iff.1 hP).1
  have hzl : w.heap.size + 1 < W1.heap.size := (Array.getElem?_eq_some_iff.1 hZ).1
  have q0 := cell_heap hP 0; have q1 := cell_heap hP 1
  have CL := fun W (hb : Below w.heap.size w W) => cloneLf_any a n c xs W (h.row.below hb) HN.out (by unfold maxLen; omega) (by omega)
  go_upto_region 3 with (go_at_call 111; refine (CL _ hbel).mono ?_; rintro e w2 ⟨v, rfl, hown, hb⟩; obtain ⟨a2, c2, hv, _, hc2, hcm2, _⟩ := own_slice hown; subst hv; have hP := cells_of hP hb hpl; have hZ := cells_of hZ hb hzl; have hpl := Nat.lt_of_lt_of_le hpl hb.size; have hzl := Nat.lt_of_lt_of_le hzl hb.size; have hbel := hbel.trans (hb.mono hbel.size))
  have hB : w.heap.size + 1 < W1.heap.size := (by
    have := hb.size
    have q := (Array.getElem?_eq_some_iff.1 hP).1
    first | assumption | omega)
  obtain ⟨base, hbase⟩ : ∃ x, W1.heap.size = x := ⟨_, rfl⟩
  rw [hbase] at hown hB
  have hbw : base ≤ w2.heap.size := by rw [← hbase]; exact hb.size
  clear hb hbase CL
  rcases Nat.eq_zero_or_pos n with h0 | hpos
  · subst h0
    obtain rfl : xs = [] := List.eq_nil_of_length_eq_zero HN.out
    go_loopw [10] (fun i wr => i = .int .i64 0 ∧ wr = w2) (fun i _ => 0)
    case atStart => exact ⟨rfl, rfl⟩
    case round =>
      obtain ⟨rfl, rfl⟩ := hrel
      have q0 := cell_heap hP 0; have q1 := cell_heap hP 1
      go_wp2_with (refine wpList_storeRowTo (Z := #[.int .i64 ct, .slice a2 0 c2]) rfl (.tmp 2) (.tmp 27) 32 rfl (by kernel_rfl) rfl (by rfl) hZ rfl (pf_one _ _ _ _) ?_)
      have hZ2 : (World.setRow _ (w.heap.size + 1) #[.int .i64 ct, .slice a2 0 c2]).heap[w.heap.size + 1]? = some (.cells #[.int .i64 ct, .slice a2 0 c2] 32 (0, 0)) := setRow_heap _ _ _ _ _ _ hZ
      have hrd := run_loadVar_mid (P := Try.prog) _ (w.heap.size + 1) 0 32 (#[.int .i64 ct, .slice a2 0 c2] : Array Value).toList _ (rangeAt_row5 hZ2) Try.underlying32 rfl (by kernel_rfl)
      refine bodyPost_ret (v := .agg #[.int .i64 ct, .slice a2 0 c2]) ?_ rfl ?_
      · simp [results, Try.results75, asAddr]
        exact hrd
      exact ⟨a2, 0, c2, [], rfl, rfl, ⟨RowAt.nil _ _, ((own_held hown).same (SameT.setRow hB)).mono (by omega), fun x h => by cases h⟩, rfl, hc2, hcm2, below_setRow hbel (Nat.le_succ _) _⟩
  obtain ⟨g, cap, cur0, hv, hbg, hG, hnc, hcm, hcs, htk⟩ := own_cells hown hpos
  simp only [Value.slice.injEq] at hv
  obtain ⟨rfl, _, rfl⟩ := hv
  go_loopw [10] (fun i wr => ∃ (k : Nat) (ys : List LeafV) (cur : Array Value), k ≤ n ∧ i = .int .i64 k ∧ ys.length = n ∧ Hid (ys.map LeafV.d = xs.map LeafV.d) ∧ wr.heap[g]? = some (.cells cur 111 (0, 0)) ∧ cur.size = c2 * 4 ∧ cur.toList.take (n * 4) = ys.flatMap LeafV.cells ∧ (∀ j (hj : j < ys.length), j < k → ys[j].held wr base) ∧ ys.drop k = xs.drop k ∧ wr.heap[w.heap.size]? = some (.cells #[.int .i64 ct, .slice a n c] 32 (0, 0)) ∧ wr.heap[w.heap.size + 1]? = some (.cells #[.int .i64 0, .slice none 0 0] 32 (0, 0)) ∧ base ≤ wr.heap.size ∧ Below w.heap.size w wr) (fun i _ => n - (intOf i).toNat)
  case atStart => exact ⟨0, xs, cur0, Nat.zero_le _, rfl, HN.out, Lib.hid rfl, hG, hcs, htk, (fun j hj h => by omega), rfl, hP, hZ, hbw, hbel⟩
  case round =>
    clear hG hcs htk hP hZ hbel hpl hzl q0 q1 hown hbw
    obtain ⟨k, ys, cur, hk, rfl, hyl, HD, hG, hcs, htk, hheld, hdrop, hP, hZ, hbw, hbel⟩ := hrel
    have hgl : g < wr.heap.size := (Array.getElem?_eq_some_iff.1 hG).1
    by_cases hlt : k < n
    · have d1 : decide ((k : Int) < (n : Int)) = true := decide_eq_true (by omega)
      have d1n : decide (k < n) = true := decide_eq_true hlt
      have hky : k < ys.length := by omega
      have hkx : k < xs.length := by rw [HN.out]; exact hlt
      have heq : ys[k] = xs[k] := by
        have := congrArg (fun l => l[0]?) hdrop
        simp only [List.getElem?_drop, Nat.add_zero, List.getElem?_eq_getElem hky, List.getElem?_eq_getElem hkx, Option.some.injEq] at this
        exact this
      have hok := (h.each _ (List.getElem_mem hkx)).below hbel
      have hpl := hp _ (List.getElem_mem hkx)
      have hset := fun (y : LeafV) (v : Value) (hy : y.cells = (ys[k].cells).set 3 v) => flat_set LeafV.cells 4 LeafV.cells_len ys k 3 y v hky (by decide) hy
      have hmap := fun (y : LeafV) (hy : y.d = ys[k].d) => map_set_d ys k y hky hy
      have hcell : wr.cell? ⟨g, k * 4 + 3, none⟩ = (ys[k].cells)[3]? := by
        have hr := take_row hG htk
        rcases hr with hr | ⟨b, off, hb, _, hc⟩
        · have := flat_length LeafV.cells 4 LeafV.cells_len ys; rw [hr] at this; simp at this; omega
        · simp only [Option.some.injEq, Addr.mk.injEq, and_true] at hb
          obtain ⟨rfl, rfl⟩ := hb
          have hjl : k * 4 + 3 < (ys.flatMap LeafV.cells).length := by rw [flat_length LeafV.cells 4 LeafV.cells_len]; omega
          have := hc (k * 4 + 3) hjl
          rw [Nat.zero_add] at this
          rw [this, flat_get LeafV.cells 4 LeafV.cells_len ys k 3 hky (by decide)]
      rw [heq] at hset hmap hcell
      obtain ⟨⟨key, val, idx, pa, pn, pc, path⟩, hx9⟩ : ∃ x, xs[k] = x := ⟨_, rfl⟩
      rw [hx9] at hok hpl hset hmap hcell
      have hcell3 : wr.cell? ⟨g, k * 4 + 3, none⟩ = some (.slice pa pn pc) := hcell
      clear hcell
      obtain ⟨ok1, ok2, ok3, ok4, ok5, ok6⟩ := hok
      simp only at ok1 ok2 ok3 ok4 ok5 ok6 hpl
      have CH := fun W (hb : Below wr.heap.size wr W) => cloneHs_any pa pn pc path W (ok1.below hb) ok2 (by omega) (by omega)
      have fr := frozen_heap hG (k * 4 + 3)
      have hfr := fun W (hb : Below wr.heap.size wr W) => frozen_heap (cells_of hG hb hgl) (k * 4 + 3)
      have hcl := fun W (hb : Below wr.heap.size wr W) => (cell_heap (cells_of hG hb hgl) (k * 4 + 3)).trans ((cell_heap hG (k * 4 + 3)).symm.trans hcell3)
      have n0 : (0 : Int) ≤ (k : Int) := by omega
      have n1' : (k : Int) < (n : Int) := by omega
      have n2' : ((k : Nat) : Int).toNat = k := by omega
      have HX := Lib.hid hx9
      clear hx9 heq
      go_upto_region 6 with (go_at_call 112; refine (CH _ (Below.refl _ _)).mono ?_; rintro e w3 ⟨v3, rfl, hown3, hb⟩; obtain ⟨a3, c3, hv3, hr3, hc3, hcm3, _⟩ := own_slice hown3; subst hv3; have fr9 := hfr _ hb; have cl9 := hcl _ hb)
      have hG := cells_of hG hb hgl
      have hP := cells_of hP hb (by omega)
      have hZ := cells_of hZ hb (by omega)
      have hb9 : g < wr.heap.size := hgl
      refine wp_nameE _ (fun W9 hX => ?_)
      have hG9 : W9.heap[g]? = some (.cells (cur.setIfInBounds (k * 4 + 3) (.slice a3 pn c3)) 111 (0, 0)) := by rw [hX]; exact row_put5 hG
      have hP9 : W9.heap[w.heap.size]? = some (.cells #[.int .i64 ct, .slice a n c] 32 (0, 0)) := by rw [hX]; exact row_oth hP (by omega)
      have hZ9 : W9.heap[w.heap.size + 1]? = some (.cells #[.int .i64 0, .slice none 0 0] 32 (0, 0)) := by rw [hX]; exact row_oth hZ (by omega)
      have hbel9 : Below w.heap.size w W9 := by rw [hX]; exact (hbel.trans (hb.mono hbel.size)).setCell (p := ⟨g, k * 4 + 3, none⟩) (by show _ ≤ g; omega) _
      have hsz9 : W9.heap.size = w3.heap.size := by rw [hX, World.size_setCell]
      have hsm : SameT 23 base wr W9 := by rw [hX]; exact (SameT.below hb).trans (SameT.cellT hG (by decide))
      have hown9 : W9.ownsRow wr.heap.size 23 32 (.slice a3 pn c3) pn (path.flatMap H32.cells) := by rw [hX]; exact own_far hown3 (fun j q1 q2 => row_oth' w3 g (k * 4 + 3) j _ (by omega))
      clear hX
      go_wp2
      go_roundw
      case rel =>
        refine ⟨k + 1, ys.set k ⟨key, val, idx, a3, pn, c3, path⟩, _, by omega, by go_num, by rw [List.length_set]; exact hyl, Lib.hid ((hmap ⟨key, val, idx, a3, pn, c3, path⟩ rfl).trans HD.out), hG9, by rw [Array.size_setIfInBounds]; exact hcs, ?_, ?_, ?_, hP9, hZ9, by rw [hsz9]; exact Nat.le_trans hbw hb.size, hbel9⟩
        · rw [Array.toList_setIfInBounds, List.take_set, htk]
          exact hset _ _ rfl
        · intro j hj hjk
          rw [List.length_set] at hj
          by_cases hjk2 : j = k
          · subst hjk2
            rw [List.getElem_set_self]
            have hh := own_held hown9
            have hrr := RowAt.own hown9
            obtain ⟨aa, cc, hv, hr, _⟩ := hrr
            simp only [Value.slice.injEq] at hv
            obtain ⟨rfl, _, rfl⟩ := hv
            exact ⟨⟨hr, ok2, hc3, hcm3, ok5, ok6⟩, hh.mono hbw⟩
          · rw [List.getElem_set_ne (Ne.symm hjk2)]
            exact (hheld j hj (by omega)).same hsm
        · rw [List.drop_set, if_pos (by omega)]
          have := congrArg (List.drop 1) hdrop
          rw [List.drop_drop, List.drop_drop] at this
          exact this
      case measure => (simp [intOf]) <;> omega
    · obtain rfl : k = n := by omega
      have d1 : decide ((k : Int) < (k : Int)) = false := decide_eq_false (by omega)
      have d1n : decide (k < k) = false := decide_eq_false (by omega)
      have q0 := cell_heap hP 0; have q1 := cell_heap hP 1
      have hL : lvsHeld wr base (some ⟨g, 0, none⟩) ys := ⟨take_row hG htk, fun b off sp hb => by simp only [Option.some.injEq, Addr.mk.injEq] at hb; obtain ⟨rfl, _, _⟩ := hb; exact ⟨hbg, cur, _, hG⟩, fun x hx => by
        obtain ⟨j, hj, rfl⟩ := List.getElem_of_mem hx
        exact hheld j hj (by omega)⟩
      go_wp2_with (refine wpList_storeRowTo (Z := #[.int .i64 ct, .slice (some ⟨g, 0, none⟩) k c2]) rfl (.tmp 2) (.tmp 27) 32 rfl (by kernel_rfl) rfl (by rfl) hZ rfl (pf_one _ _ _ _) ?_)
      have hZ2 : (World.setRow _ (w.heap.size + 1) #[.int .i64 ct, .slice (some ⟨g, 0, none⟩) k c2]).heap[w.heap.size + 1]? = some (.cells #[.int .i64 ct, .slice (some ⟨g, 0, none⟩) k c2] 32 (0, 0)) := setRow_heap _ _ _ _ _ _ hZ
      have hrd := run_loadVar_mid (P := Try.prog) _ (w.heap.size + 1) 0 32 (#[.int .i64 ct, .slice (some ⟨g, 0, none⟩) k c2] : Array Value).toList _ (rangeAt_row5 hZ2) Try.underlying32 rfl (by kernel_rfl)
      refine bodyPost_ret (v := .agg #[.int .i64 ct, .slice (some ⟨g, 0, none⟩) k c2]) ?_ rfl ?_
      · simp [results, Try.results75, asAddr]
        exact hrd
      exact ⟨some ⟨g, 0, none⟩, k, c2, ys, rfl, HD.out, (hL.same (SameT.setRow hB) (SameT.setRow hB)).mono (by omega), hyl, hc2, hcm2, below_setRow hbel (Nat.le_succ _) _⟩
end Go.Proofs.Ythipnkbfdkmhaaa
