/- Proofs: their steps, their bytes. -/
import Derived.Test.YthipnkbfdkmhaaaPf2
import Derived.Test.YthipnkbfdkmhaaaSC
import Derived.WalkKit
import Derived.ProofKit
import Derived.Handy
import Derived.Below
import Derived.Lib.Hide
import Derived.IntWalk
import Derived.Outline
import Derived.WalkLawsBesides
import Derived.WalkSpells
namespace Go.Proofs.Ythipnkbfdkmhaaa
open Go.RowKit
attribute [local go_sem] strV
set_option linter.unusedVariables false

def stepsD (xs : List LeafV) : Nat := xs.length + (xs.map fun x => x.path.length).sum
theorem hrow_rangeM {w : World} {b : Nat} {q : H32} {e : TypeId} {fz : Nat × Nat} (h : w.heap[b]? = some (.cells (hrow q.1) e fz)) : w.rangeAt b 0 q.cells := by
  have := rangeAt_row5 h
  rw [show (hrow q.1).toList = q.cells by rw [← H32.row]] at this
  exact this
theorem hash_infoM (q : H32) : (Try.prog.info? 23).map (·.size) = some q.cells.length := by rw [H32.cells_len]; kernel_rfl
theorem mayPfB_parts {ct : Int} {xs : List LeafV} (h : mayPfB ct xs = true) : 0 ≤ ct ∧ ct ≤ 1073741824 ∧ xs.length ≤ 2 ∧ ∀ x ∈ xs, x.key.size ≤ 160 ∧ x.val.size ≤ 64 ∧ 0 ≤ x.idx ∧ x.idx < ct ∧ x.path.length ≤ 30 := by
  unfold mayPfB at h
  simp only [Bool.and_eq_true, decide_eq_true_eq, List.all_eq_true] at h
  obtain ⟨⟨⟨h1, h2⟩, h3⟩, h4⟩ := h
  refine ⟨h1, h2, h3, fun x hx => ?_⟩
  have := h4 x hx
  unfold mayLeafB fitsB at this
  simp only [Bool.and_eq_true, decide_eq_true_eq] at this
  obtain ⟨⟨⟨⟨⟨⟨_, a1⟩, _⟩, a2⟩, a3⟩, a4⟩, a5⟩ := this
  refine ⟨a1, a2, a3, a4, ?_⟩
  unfold deepI at a5
  have hd := deepN_30 (n := ct.toNat) (i := x.idx.toNat) (by omega)
  cases hb : insB ct x.idx
  · rw [hb] at a5; simp only [cond_false] at a5; omega
  · rw [hb] at a5; simp only [cond_true] at a5; omega
theorem sum_take {xs : List LeafV} {k : Nat} (hk : k < xs.length) : ((xs.take (k + 1)).map fun x => x.path.length).sum = ((xs.take k).map fun x => x.path.length).sum + xs[k].path.length := by
  rw [List.take_succ_eq_append_getElem hk, List.map_append, List.sum_append]; simp
set_option maxRecDepth 100000 in
set_option maxHeartbeats 4000000 in
theorem steps_any (ct : Int) (a : Option Addr) (n cap : Nat) (xs : List LeafV) (w : World) (h : LvsAt w a xs) (hn : xs.length = n) (hn5 : n ≤ 5) (hp : ∀ x ∈ xs, x.path.length ≤ 40) :
    Calls Try.prog 37 #[.agg #[.int .i64 ct, .slice a n cap]] w fun e w' => e = .returned (.int .i64 (stepsD xs : Nat)) ∧ Below w.heap.size w w' := by
  have HN := Lib.hid hn
  obtain ⟨r, hr⟩ : ∃ r, stepsD xs = r := ⟨_, rfl⟩
  rw [hr]
  have HF : Hid (n + (xs.map fun x => x.path.length).sum = r) := Lib.hid (by rw [← hr, ← hn]; rfl)
  clear hr hn
  have hg0 := heap_push w #[.int .i64 ct, .slice a n cap] 32
  have hbA : Below w.heap.size w (w.alloc (.cells #[.int .i64 ct, .slice a n cap] 32)) := Below.alloc (Below.refl _ _) (Nat.le_refl _) _
  go_enter Try.func37, Try.ntmps37
  go_upto_region 1 with fail
  refine wp_nameE _ (fun W1 hX => ?_)
  have hg : W1.heap[w.heap.size]? = some (.cells #[.int .i64 ct, .slice a n cap] 32 (0, 0)) := by rw [hX]; exact hg0
  have hb1 : Below w.heap.size w W1 := by rw [hX]; exact hbA
  clear hX hg0 hbA
  have hgl : w.heap.size < W1.heap.size := (Array.getElem?_eq_some_iff.1 hg).1
  have q0 := cell_heap hg 0; have q1 := cell_heap hg 1
  have hbel := hb1
  go_upto_region 3 with fail
  go_loopw [3, 12] (fun s i wr => ∃ k t : Nat, k ≤ n ∧ i = .int .i64 k ∧ s = .int .i64 t ∧ Hid (t = n + ((xs.take k).map fun x => x.path.length).sum) ∧ t ≤ 5 + 40 * k ∧ Below w.heap.size w wr) (fun _ i _ => n - (intOf i).toNat)
  case atStart => exact ⟨0, n, Nat.zero_le _, rfl, rfl, Lib.hid (by simp), by omega, hbel⟩
  case round =>
    clear hbel hg hgl q0 q1 hb1
    obtain ⟨k, t, hk, rfl, rfl, HT, ht, hbel⟩ := hrel
    by_cases hlt : k < n
    · have d1 : decide ((k : Int) < (n : Int)) = true := decide_eq_true (by omega)
      have d1n : decide (k < n) = true := decide_eq_true hlt
      have hkl : k < xs.length := by rw [HN.out]; exact hlt
      obtain ⟨b1, o1, rfl, hb1, hg1⟩ := lv_range (h.row.below hbel) hkl
      have ok1 := (h.each _ (List.getElem_mem hkl)).below hbel
      have hp40 := hp _ (List.getElem_mem hkl)
      have hstep := sum_take hkl
      obtain ⟨⟨key, val, idx, pa, pn, pc, path⟩, hp9⟩ : ∃ p, xs[k] = p := ⟨_, rfl⟩
      rw [hp9] at hg1 ok1 hstep hp40
      have hg1 : wr.rangeAt b1 (o1 + k * 4) [.string key, .string val, .int .i64 idx, .slice pa pn pc] := hg1
      have hpl : path.length = pn := ok1.len
      simp only [hpl] at hstep hp40
      have HS : Hid (t + pn = n + ((xs.take (k + 1)).map fun x => x.path.length).sum) := Lib.hid (by rw [hstep, HT.out]; omega)
      have n0 : (0 : Int) ≤ (k : Int) := by omega
      have n1' : (k : Int) < (n : Int) := by omega
      have n2' : ((k : Nat) : Int).toNat = k := by omega
      have n3 : (t : Int) ≤ 1000 := by omega
      have n4 : (pn : Int) ≤ 40 := by omega
      clear hp9 ok1 hpl hstep
      go_upto_region 5 with (first | (refine wpList_load_mid rfl 111 (.tmp 14) rfl b1 _ rfl _ _ hg1 Try.underlying111 rfl (by kernel_rfl) ?_) | (refine wpList_storeRowTo rfl (.tmp 5) (.tmp 15) 111 rfl (by kernel_rfl) rfl (by rfl) (heap_push _ _ _) rfl (leaf_one _ _ _ _ _ _) ?_))
      refine wp_nameE _ (fun W5 hX => ?_)
      have hb5 : Below wr.heap.size wr W5 := by rw [hX]; first | exact below_setRow (Below.alloc (Below.refl _ _) (Nat.le_refl _) _) (Nat.le_refl _) _ | exact Below.alloc (Below.refl _ _) (Nat.le_refl _) _
      have hx : W5.heap[wr.heap.size]? = some (.cells #[.string key, .string val, .int .i64 idx, .slice pa pn pc] 111 (0, 0)) := by rw [hX]; first | exact setRow_heap _ _ _ _ _ _ (heap_push _ _ _) | exact heap_push _ _ _
      clear hX hg1
      have hxl : wr.heap.size < W5.heap.size := (Array.getElem?_eq_some_iff.1 hx).1
      have x0 := cell_heap hx 0; have x1 := cell_heap hx 1; have x2 := cell_heap hx 2; have x3 := cell_heap hx 3
      have hbel := hbel.trans (hb5.mono hbel.size)
      go_wp2
      go_roundw
      case rel => exact ⟨k + 1, t + pn, by omega, by go_num, by go_num, HS, by omega, hbel⟩
      case measure => (simp [intOf]) <;> omega
    · have d9 : decide ((k : Int) < (n : Int)) = false := decide_eq_false (by omega)
      have d9n : decide (k < n) = false := decide_eq_false hlt
      obtain rfl : t = r := by rw [← HF.out, HT.out, List.take_of_length_le (by rw [HN.out]; omega)]
      go_wp2
      go_ret
      exact ⟨rfl, hbel⟩
def leafBy (x : LeafV) : List UInt8 := putL (x.key.size : Int) ++ x.key.data.toList ++ putL (x.val.size : Int) ++ x.val.data.toList ++ putL x.idx ++ putL (x.path.length : Int) ++ x.path.flatMap (·.1)
def pfBy (ct : Int) (xs : List LeafV) : List UInt8 := putL ct ++ putL (xs.length : Int) ++ xs.flatMap leafBy
theorem flat32 (p : List H32) : (p.flatMap (·.1)).length = p.length * 32 := by
  induction p with
  | nil => rfl
  | cons q p ih => rw [List.flatMap_cons, List.length_append, ih, q.2, List.length_cons]; omega
theorem leafBy_len {x : LeafV} (h1 : x.key.size ≤ 160) (h2 : x.val.size ≤ 64) (h3 : x.path.length ≤ 30) : (leafBy x).length ≤ 1216 := by
  have p1 := putL_len' (x.key.size : Int); have p2 := putL_len' (x.val.size : Int); have p3 := putL_len' x.idx; have p4 := putL_len' (x.path.length : Int)
  unfold leafBy
  simp only [List.length_append, str_len, flat32]
  omega
theorem flat_takeB {α : Type} {f : α → List UInt8} {xs : List α} {k : Nat} (hk : k < xs.length) : (xs.take (k + 1)).flatMap f = (xs.take k).flatMap f ++ f xs[k] := by
  rw [List.take_succ_eq_append_getElem hk, List.flatMap_append]; simp
theorem flat_leB {xs : List LeafV} (h : ∀ x ∈ xs, (leafBy x).length ≤ 1216) : ∀ k, ((xs.take k).flatMap leafBy).length ≤ xs.length * 1216 := by
  induction xs with
  | nil => intro k; simp
  | cons x xs ih =>
    intro k
    have h1 := h x (List.mem_cons_self ..)
    have h2 := ih (fun y hy => h y (List.mem_cons_of_mem _ hy))
    cases k with
    | zero => simp
    | succ k => have := h2 k; rw [List.take_succ_cons, List.flatMap_cons, List.length_append, List.length_cons]; omega
set_option maxRecDepth 100000 in
set_option maxHeartbeats 4000000 in
theorem pfWrite_any (b : Nat) (w0 w : World) (l : List UInt8) (ct : Int) (a : Option Addr) (n cap : Nat) (xs : List LeafV) (hL : LvsAt w0 a xs) (hw0 : Below w0.heap.size w0 w) (hW : WAt w0.heap.size b w l 0) (hn : xs.length = n) (hM : mayPfB ct xs = true) (hl : l.length ≤ 600000) :
    Calls Try.prog 95 #[.pointer (some ⟨b, 0, none⟩), .agg #[.int .i64 ct, .slice a n cap]] w fun e w' => e = .returned (.tuple #[]) ∧ WAt w0.heap.size b w' (l ++ pfBy ct xs) 0 ∧ Below w0.heap.size w w' ∧ KW b w w' := by
  obtain ⟨m1, m2, m3, m4⟩ := mayPfB_parts hM
  have hBw := hw0.size
  have hlb : ∀ x ∈ xs, (leafBy x).length ≤ 1216 := fun x hx => leafBy_len (m4 x hx).1 (m4 x hx).2.1 (m4 x hx).2.2.2.2
  have hfl := flat_leB hlb
  obtain ⟨ct, rfl⟩ : ∃ m : Nat, ct = m := ⟨ct.toNat, by omega⟩
  have HN := Lib.hid hn
  have a1 := putL_len' (ct : Int); have a2 := putL_len' (n : Int)
  have hn2 : n ≤ 2 := by omega
  rw [hn] at hfl
  obtain ⟨FIN, hFIN⟩ : ∃ F, l ++ pfBy ct xs = F := ⟨_, rfl⟩
  rw [hFIN]
  have HFIN : Hid (l ++ putL (ct : Int) ++ putL (n : Int) ++ xs.flatMap leafBy = FIN) := Lib.hid (by rw [← hFIN, ← hn]; unfold pfBy; simp only [List.append_assoc])
  clear hn hM hFIN hlb
  have hgb : w.heap.size ≠ b := by have := hW.lt; omega
  have hg0 := heap_push w #[.int .i64 ct, .slice a n cap] 32
  have hbA : Below w.heap.size w (w.alloc (.cells #[.int .i64 ct, .slice a n cap] 32)) := Below.alloc (Below.refl _ _) (Nat.le_refl _) _
  go_enter Try.func95, Try.ntmps95
  go_upto_region 1 with fail
  refine wp_nameE _ (fun W1 hX => ?_)
  have hg : W1.heap[w.heap.size]? = some (.cells #[.int .i64 ct, .slice a n cap] 32 (0, 0)) := by rw [hX]; exact hg0
  have hb1 : Below w.heap.size w W1 := by rw [hX]; exact hbA
  clear hX hg0 hbA
  have hgl : w.heap.size < W1.heap.size := (Array.getElem?_eq_some_iff.1 hg).1
  have q0 := cell_heap hg 0; have q1 := cell_heap hg 1
  have hkw : KW b w W1 := KW.of hb1
  have hbel : Below w0.heap.size w W1 := hb1.mono hBw
  have hW := hW.below hb1
  have hBw := Nat.le_trans hBw hb1.size
  clear hb1
  go_upto_region 2 with (go_at_call 76; refine (wnum_k w0.heap.size b _ _ ct hW hBw ?_ ?_).mono ?_; omega; (first | omega | (simp only [List.length_append]; omega) | (simp only [List.length_append, str_len]; omega)); rintro e w2 ⟨rfl, hW, hb2, hk2⟩; have hg := hk2.row2 hg hgb (by decide); have hBw := Nat.le_trans hBw hk2.size; have hbel := hbel.trans hb2; have hkw := hkw.trans hk2; have q0 := cell_heap hg 0; have q1 := cell_heap hg 1)
  go_upto_region 3 with (go_at_call 76; refine (wnum_k w0.heap.size b _ _ n hW hBw ?_ ?_).mono ?_; omega; (first | omega | (simp only [List.length_append]; omega) | (simp only [List.length_append, str_len]; omega)); rintro e w3 ⟨rfl, hW, hb2, hk2⟩; have hg := hk2.row2 hg hgb (by decide); have hBw := Nat.le_trans hBw hk2.size; have hbel := hbel.trans hb2; have hkw := hkw.trans hk2; have q0 := cell_heap hg 0; have q1 := cell_heap hg 1)
  obtain ⟨l1, hl1⟩ : ∃ t, l ++ putL (ct : Int) ++ putL (n : Int) = t := ⟨_, rfl⟩
  have hl1n : l1.length ≤ 600016 := by rw [← hl1]; simp only [List.length_append]; omega
  rw [hl1] at hW
  have HFIN : Hid (l1 ++ xs.flatMap leafBy = FIN) := Lib.hid (by rw [← hl1]; exact HFIN.out)
  clear hl1
  go_upto_region 4 with fail
  clear q0 q1 hg hgb hgl
  go_loopw [20] (fun i wr => ∃ k : Nat, k ≤ n ∧ i = .int .i64 k ∧ WAt w0.heap.size b wr (l1 ++ (xs.take k).flatMap leafBy) 0 ∧ w0.heap.size ≤ wr.heap.size ∧ KW b w wr ∧ Below w0.heap.size w wr) (fun i _ => n - (intOf i).toNat)
  case atStart => exact ⟨0, Nat.zero_le _, rfl, by simpa using hW, hBw, hkw, hbel⟩
  case round =>
    clear hW hBw hkw hbel
    obtain ⟨k, hk, rfl, hW, hBw, hkw, hbel⟩ := hrel
    have hflk := hfl k
    by_cases hlt : k < n
    · have d1 : decide ((k : Int) < (n : Int)) = true := decide_eq_true (by omega)
      have d1n : decide (k < n) = true := decide_eq_true hlt
      have hkl : k < xs.length := by rw [HN.out]; exact hlt
      obtain ⟨b1, o1, rfl, hb1, hg1⟩ := lv_range (hL.row.below (hw0.trans hbel)) hkl
      have ok1 := hL.each _ (List.getElem_mem hkl)
      have hm := m4 _ (List.getElem_mem hkl)
      have hstep := flat_takeB (f := leafBy) hkl
      obtain ⟨⟨key, val, idx, pa, pn, pc, path⟩, hp9⟩ : ∃ p, xs[k] = p := ⟨_, rfl⟩
      rw [hp9] at hg1 ok1 hstep hm
      have hg1 : wr.rangeAt b1 (o1 + k * 4) [.string key, .string val, .int .i64 idx, .slice pa pn pc] := hg1
      have hpl : path.length = pn := ok1.len
      have okr : RowAt w0 pa (path.flatMap H32.cells) := ok1.row
      obtain ⟨g1, g2, g3, g4, g5⟩ := hm
      simp only at g1 g2 g3 g4 g5
      obtain ⟨idx, rfl⟩ : ∃ m : Nat, idx = m := ⟨idx.toNat, by omega⟩
      have hxb : wr.heap.size ≠ b := by have := hW.lt; omega
      have n0 : (0 : Int) ≤ (k : Int) := by omega
      have n1' : (k : Int) < (n : Int) := by omega
      have n2' : ((k : Nat) : Int).toNat = k := by omega
      have p1 := putL_len' (key.size : Int); have p2 := putL_len' (val.size : Int); have p3 := putL_len' (idx : Int); have p4 := putL_len' (pn : Int)
      obtain ⟨l2, hl2⟩ : ∃ t, l1 ++ (xs.take k).flatMap leafBy = t := ⟨_, rfl⟩
      have hl2n : l2.length ≤ 603000 := by rw [← hl2, List.length_append]; omega
      have HST : Hid (l1 ++ (xs.take (k + 1)).flatMap leafBy = l2 ++ putL (key.size : Int) ++ key.data.toList ++ putL (val.size : Int) ++ val.data.toList ++ putL (idx : Int) ++ putL (pn : Int) ++ path.flatMap (·.1)) := Lib.hid (by
        rw [hstep, ← hl2]; unfold leafBy; simp only [hpl, List.append_assoc])
      rw [hl2] at hW
      have hpn : pn ≤ 30 := by omega
      have HPL := Lib.hid hpl
      clear hp9 ok1 hpl hstep hl2 hflk
      go_upto_region 6 with (first | (refine wpList_load_mid rfl 111 (.tmp 22) rfl b1 _ rfl _ _ hg1 Try.underlying111 rfl (by kernel_rfl) ?_) | (refine wpList_storeRowTo rfl (.tmp 5) (.tmp 23) 111 rfl (by kernel_rfl) rfl (by rfl) (heap_push _ _ _) rfl (leaf_one _ _ _ _ _ _) ?_))
      refine wp_nameE _ (fun W5 hX => ?_)
      have hb5 : Below wr.heap.size wr W5 := by rw [hX]; first | exact below_setRow (Below.alloc (Below.refl _ _) (Nat.le_refl _) _) (Nat.le_refl _) _ | exact Below.alloc (Below.refl _ _) (Nat.le_refl _) _
      have hx : W5.heap[wr.heap.size]? = some (.cells #[.string key, .string val, .int .i64 idx, .slice pa pn pc] 111 (0, 0)) := by rw [hX]; first | exact setRow_heap _ _ _ _ _ _ (heap_push _ _ _) | exact heap_push _ _ _
      clear hX hg1
      have hxl : wr.heap.size < W5.heap.size := (Array.getElem?_eq_some_iff.1 hx).1
      have x0 := cell_heap hx 0; have x1 := cell_heap hx 1; have x2 := cell_heap hx 2; have x3 := cell_heap hx 3
      have hW := hW.below hb5
      have hBw := Nat.le_trans hBw hb5.size
      have hkw := hkw.trans (KW.of hb5)
      have hbel := hbel.trans (hb5.mono (by omega))
      clear hb5
      go_upto_region 7 with (go_at_call 77; refine (wtext_k w0.heap.size b _ _ key hW hBw ?_ ?_).mono ?_; omega; (first | omega | (simp only [List.length_append]; omega) | (simp only [List.length_append, str_len]; omega)); rintro e w4 ⟨rfl, hW, hb2, hk2⟩; have hx := hk2.row2 hx hxb (by decide); have hBw := Nat.le_trans hBw hk2.size; have hbel := hbel.trans hb2; have x0 := cell_heap hx 0; have x1 := cell_heap hx 1; have x2 := cell_heap hx 2; have x3 := cell_heap hx 3; have hkw := hkw.trans hk2)
      go_upto_region 8 with (go_at_call 77; refine (wtext_k w0.heap.size b _ _ val hW hBw ?_ ?_).mono ?_; omega; (first | omega | (simp only [List.length_append]; omega) | (simp only [List.length_append, str_len]; omega)); rintro e w5 ⟨rfl, hW, hb2, hk2⟩; have hx := hk2.row2 hx hxb (by decide); have hBw := Nat.le_trans hBw hk2.size; have hbel := hbel.trans hb2; have x0 := cell_heap hx 0; have x1 := cell_heap hx 1; have x2 := cell_heap hx 2; have x3 := cell_heap hx 3; have hkw := hkw.trans hk2)
      go_upto_region 9 with (go_at_call 76; refine (wnum_k w0.heap.size b _ _ idx hW hBw ?_ ?_).mono ?_; omega; (first | omega | (simp only [List.length_append]; omega) | (simp only [List.length_append, str_len]; omega)); rintro e w6 ⟨rfl, hW, hb2, hk2⟩; have hx := hk2.row2 hx hxb (by decide); have hBw := Nat.le_trans hBw hk2.size; have hbel := hbel.trans hb2; have x0 := cell_heap hx 0; have x1 := cell_heap hx 1; have x2 := cell_heap hx 2; have x3 := cell_heap hx 3; have hkw := hkw.trans hk2)
      go_upto_region 10 with (go_at_call 76; refine (wnum_k w0.heap.size b _ _ pn hW hBw ?_ ?_).mono ?_; omega; (first | omega | (simp only [List.length_append]; omega) | (simp only [List.length_append, str_len]; omega)); rintro e w7 ⟨rfl, hW, hb2, hk2⟩; have hx := hk2.row2 hx hxb (by decide); have hBw := Nat.le_trans hBw hk2.size; have hbel := hbel.trans hb2; have x0 := cell_heap hx 0; have x1 := cell_heap hx 1; have x2 := cell_heap hx 2; have x3 := cell_heap hx 3; have hkw := hkw.trans hk2)
      obtain ⟨l3, hl3⟩ : ∃ t, l2 ++ putL (key.size : Int) ++ key.data.toList ++ putL (val.size : Int) ++ val.data.toList ++ putL (idx : Int) ++ putL (pn : Int) = t := ⟨_, rfl⟩
      have hl3n : l3.length ≤ 604000 := by rw [← hl3]; simp only [List.length_append, str_len]; omega
      have HST : Hid (l1 ++ (xs.take (k + 1)).flatMap leafBy = l3 ++ path.flatMap (·.1)) := Lib.hid (by rw [← hl3]; exact HST.out)
      simp only [List.append_assoc] at hW hl3
      rw [hl3] at hW
      clear hl3
      go_upto_region 11 with fail
      clear x0 x1 x2 x3 hx hxl hxb
      go_loopw [44] (fun i wr => ∃ j : Nat, j ≤ pn ∧ i = .int .i64 j ∧ WAt w0.heap.size b wr (l3 ++ (path.take j).flatMap (·.1)) 0 ∧ w0.heap.size ≤ wr.heap.size ∧ KW b w wr ∧ Below w0.heap.size w wr) (fun i _ => pn - (intOf i).toNat)
      case atStart => exact ⟨0, Nat.zero_le _, rfl, by simpa using hW, hBw, hkw, hbel⟩
      case round =>
        clear hW hBw hkw hbel
        obtain ⟨j, hj, rfl, hW, hBw, hkw, hbel⟩ := hrel
        have hfj : ((path.take j).flatMap (·.1)).length ≤ 960 := by rw [flat32, List.length_take]; omega
        by_cases hlj : j < pn
        · have d2 : decide ((j : Int) < (pn : Int)) = true := decide_eq_true (by omega)
          have d2n : decide (j < pn) = true := decide_eq_true hlj
          have hjl : j < path.length := by rw [HPL.out]; exact hlj
          obtain ⟨b3, o3, rfl, hb3, hg3⟩ := hs_at (okr.below (hw0.trans hbel)) hjl
          have hstj := flat_takeB (f := fun q : H32 => q.1) hjl
          obtain ⟨q, hq9⟩ : ∃ q, path[j] = q := ⟨_, rfl⟩
          rw [hq9] at hg3 hstj
          have HSJ := Lib.hid hstj
          have hsq : (hrow q.1).size = 32 := by rw [hrow_size]; exact q.2
          have hoq := hrow_one q.1
          have HSQ := Lib.hid hsq
          have m0 : (0 : Int) ≤ (j : Int) := by omega
          have m1' : (j : Int) < (pn : Int) := by omega
          have m2' : ((j : Nat) : Int).toNat = j := by omega
          clear hq9 hstj hsq
          go_upto_region 13 with (first | (refine wpList_load_mid rfl 23 (.tmp 46) rfl b3 _ rfl q.cells _ hg3 Try.underlying23 rfl (hash_infoM q) ?_; rw [H32.row]) | (refine wpList_storeRowTo rfl (.tmp 7) (.tmp 47) 23 rfl (by rw [HSQ.out]; kernel_rfl) rfl (by rfl) (heap_push _ _ _) (by rw [HSQ.out]; rfl) hoq ?_))
          refine wp_nameE _ (fun W7 hX => ?_)
          have hb7 : Below wr.heap.size wr W7 := by rw [hX]; exact below_setRow (Below.alloc (Below.refl _ _) (Nat.le_refl _) _) (Nat.le_refl _) _
          have hy : W7.heap[wr.heap.size]? = some (.cells (hrow q.1) 23 (0, 0)) := by rw [hX]; exact setRow_heap _ _ _ _ _ _ (heap_push _ _ _)
          clear hX hg3
          have hrg := hrow_rangeM hy
          have hW := hW.below hb7
          have hBw := Nat.le_trans hBw hb7.size
          have hkw := hkw.trans (KW.of hb7)
          have hbel := hbel.trans (hb7.mono (by omega))
          clear hb7
          go_wp2_with (first | (refine wpList_load_mid rfl 23 (.tmp 7) rfl wr.heap.size 0 rfl q.cells _ hrg Try.underlying23 rfl (hash_infoM q) ?_; rw [H32.row]) | (go_at_call 92; refine (whash_k w0.heap.size b _ _ q.1 q.2 hBw hW ?_).mono ?_; (simp only [List.length_append]; omega); rintro e w9 ⟨rfl, hW, hb2, hk2⟩; have hBw := Nat.le_trans hBw hk2.size; have hbel := hbel.trans hb2; have hkw := hkw.trans hk2))
          go_roundw
          case rel => exact ⟨j + 1, by omega, by go_num, by rw [HSJ.out, ← List.append_assoc]; exact hW, hBw, hkw, hbel⟩
          case measure => (simp [intOf]) <;> omega
        · have d2 : decide ((j : Int) < (pn : Int)) = false := decide_eq_false (by omega)
          have d2n : decide (j < pn) = false := decide_eq_false hlj
          rw [List.take_of_length_le (by rw [HPL.out]; omega)] at hW
          go_wp2
          go_roundw
          case rel => exact ⟨k + 1, by omega, by go_num, by rw [HST.out]; exact hW, hBw, hkw, hbel⟩
          case measure => (simp [intOf]) <;> omega
    · have d9 : decide ((k : Int) < (n : Int)) = false := decide_eq_false (by omega)
      have d9n : decide (k < n) = false := decide_eq_false hlt
      rw [List.take_of_length_le (by rw [HN.out]; omega), HFIN.out] at hW
      go_wp2
      go_returns
      exact ⟨rfl, hW, hbel, hkw⟩
end Go.Proofs.Ythipnkbfdkmhaaa
