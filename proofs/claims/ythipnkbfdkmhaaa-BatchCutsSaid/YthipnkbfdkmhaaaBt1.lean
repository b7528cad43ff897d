/- What messages take of the limits of a transaction. -/
import Derived.Test.YthipnkbfdkmhaaaSE
import Derived.Test.YthipnkbfdkmhaaaRegN
import Derived.BigRegion
import Derived.RegionTactic
import Derived.BigQuiet
import Derived.Deep.QuietTactic
import Derived.Deep.MidRow
import Derived.WalkKit
import Derived.ProofKit
import Derived.Handy
import Derived.Below
import Derived.Lib.Hide
import Derived.IntWalk
import Derived.Outline
import Derived.WalkLawsBesides
import Derived.WalkSpells
namespace Go.Proofs.Ythipnkbfdkmhaaa
open Go.RowKit
attribute [local go_sem] strV
set_option linter.unusedVariables false
set_option maxRecDepth 100000 in
theorem bt_empty (w : World) : Calls Try.prog 89 #[] w fun e w' => e = .returned (.agg #[.int .i64 (0), .int .i64 (1), .int .i64 (0)]) ∧ Below w.heap.size w w' := by
  go_enter Try.func89, Try.ntmps89
  go_wp2
  have hZ := heap_push w #[.int .i64 (0), .int .i64 (1), .int .i64 (0)] 113
  have hrd := run_loadVar_mid (P := Try.prog) _ w.heap.size 0 113 (#[.int .i64 (0), .int .i64 (1), .int .i64 (0)] : Array Value).toList _ (rangeAt_row5 hZ) Try.underlying113 rfl (by rfl)
  rw [Array.toArray_toList] at hrd
  refine bodyPost_ret (v := .agg #[.int .i64 (0), .int .i64 (1), .int .i64 (0)]) ?_ rfl ?_
  · simp [results, Try.results89, asAddr, hrd]
    try rfl
  exact ⟨rfl, Below.alloc (Below.refl _ _) (Nat.le_refl _) _⟩

set_option maxRecDepth 100000 in
theorem bt_and (c b g c' b' g' : Int) (w : World) (h1 : -100000000 ≤ c ∧ c ≤ 100000000) (h2 : -100000000 ≤ b ∧ b ≤ 100000000) (h3 : -100000000 ≤ g ∧ g ≤ 100000000) (h4 : -100000000 ≤ c' ∧ c' ≤ 100000000) (h5 : -100000000 ≤ b' ∧ b' ≤ 100000000) (h6 : -100000000 ≤ g' ∧ g' ≤ 100000000) : Calls Try.prog 87 #[.agg #[.int .i64 (c), .int .i64 (b), .int .i64 (g)], .agg #[.int .i64 (c'), .int .i64 (b'), .int .i64 (g')]] w fun e w' => e = .returned (.agg #[.int .i64 (c + c'), .int .i64 (b + b'), .int .i64 (g + g')]) ∧ Below w.heap.size w w' := by
  go_enter Try.func87, Try.ntmps87
  go_wp2
  have hZ := heap_push ((w.alloc (.cells #[.int .i64 (c), .int .i64 (b), .int .i64 (g)] 113)).alloc (.cells #[.int .i64 (c'), .int .i64 (b'), .int .i64 (g')] 113)) #[.int .i64 (c + c'), .int .i64 (b + b'), .int .i64 (g + g')] 113
  rw [show ((w.alloc (.cells #[.int .i64 (c), .int .i64 (b), .int .i64 (g)] 113)).alloc (.cells #[.int .i64 (c'), .int .i64 (b'), .int .i64 (g')] 113)).heap.size = w.heap.size + 1 + 1 by simp] at hZ
  have hrd := run_loadVar_mid (P := Try.prog) _ (w.heap.size + 1 + 1) 0 113 (#[.int .i64 (c + c'), .int .i64 (b + b'), .int .i64 (g + g')] : Array Value).toList _ (rangeAt_row5 hZ) Try.underlying113 rfl (by rfl)
  rw [Array.toArray_toList] at hrd
  refine bodyPost_ret (v := .agg #[.int .i64 (c + c'), .int .i64 (b + b'), .int .i64 (g + g')]) ?_ rfl ?_
  · simp [results, Try.results87, asAddr, hrd]
    try rfl
  exact ⟨rfl, Below.alloc (Below.alloc (Below.alloc (Below.refl _ _) (Nat.le_refl _) _) (by simp) _) (by simp; omega) _⟩

def withinB (c b g lg lb lc : Int) : Bool := decide (c ≤ min lc 64) && decide (b ≤ min lb 1048576) && decide (g ≤ lg)
set_option maxRecDepth 100000 in
theorem bt_within (c b g lg lb lc : Int) (w : World) : Calls Try.prog 88 #[.agg #[.int .i64 (c), .int .i64 (b), .int .i64 (g)], .agg #[.int .i64 (lg), .int .i64 (lb), .int .i64 (lc)]] w fun e w' => e = .returned (.bool (withinB c b g lg lb lc)) ∧ Below w.heap.size w w' := by
  unfold withinB
  have hb2 : Below w.heap.size w ((w.alloc (.cells #[.int .i64 (c), .int .i64 (b), .int .i64 (g)] 113)).alloc (.cells #[.int .i64 (lg), .int .i64 (lb), .int .i64 (lc)] 58)) := Below.alloc (Below.alloc (Below.refl _ _) (Nat.le_refl _) _) (by simp) _
  by_cases h1 : c ≤ min lc 64
  · have d1 : decide (c ≤ min lc 64) = true := decide_eq_true h1
    by_cases h2 : b ≤ min lb 1048576
    · have d2 : decide (b ≤ min lb 1048576) = true := decide_eq_true h2
      go_enter Try.func88, Try.ntmps88
      go_wp2
      go_ret
      exact ⟨by first | rfl | (rw [d1, d2]; rfl), hb2⟩
    · have d2 : decide (b ≤ min lb 1048576) = false := decide_eq_false h2
      go_enter Try.func88, Try.ntmps88
      go_wp2
      go_ret
      exact ⟨by first | rfl | (rw [d1, d2]; rfl), hb2⟩
  · have d1 : decide (c ≤ min lc 64) = false := decide_eq_false h1
    go_enter Try.func88, Try.ntmps88
    go_wp2
    go_ret
    exact ⟨by first | rfl | (rw [d1]; rfl), hb2⟩
theorem ld_one (c b g : Int) : (#[.int .i64 (c), .int .i64 (b), .int .i64 (g)] : Array Value).all (·.oneCell') = true := by
  rw [Array.all_eq_true_iff_forall_mem]; intro v hv; simp at hv; rcases hv with rfl | rfl | rfl <;> rfl
def wB (m : MsgV) : Int := ((encTx [m]).1.size : Nat) - 1
theorem wB_rng (m : MsgV) : -1 ≤ wB m ∧ wB m ≤ 400000 := by
  unfold wB encTx
  rw [if_neg (show ¬ 64 < [m].length from (by decide : ¬ 64 < 1))]
  cases h : [m].all mayMsgB
  · rw [if_neg (by decide)]; exact ⟨(by decide : (-1 : Int) ≤ -1), (by decide : (-1 : Int) ≤ 400000)⟩
  · rw [if_pos rfl]
    have := txBy_le (l := [m]) (by simp) h
    simp only [bytes_size]
    omega
theorem encTx_one (m : MsgV) : ((encTx [m]).2 == 0) = mayMsgB m := by
  unfold encTx
  rw [if_neg (show ¬ 64 < [m].length from (by decide : ¬ 64 < 1))]
  cases h : mayMsgB m <;> simp [h]
theorem msg_rowAt {W : World} {b : Nat} {m : MsgV} (h : W.heap[b]? = some (.cells m.row 34 (0, 0))) : RowAt W (some ⟨b, 0, none⟩) ([m].flatMap MsgV.cellsL) := by
  refine .inr ⟨b, 0, rfl, (Array.getElem?_eq_some_iff.1 h).1, fun j hj => ?_⟩
  rw [Nat.zero_add, cell_heap h, List.flatMap_cons, List.flatMap_nil, List.append_nil]
  unfold MsgV.cellsL
  rw [Array.getElem?_toList]
set_option maxRecDepth 100000 in
set_option maxHeartbeats 6400000 in
theorem bt_weigh (m : MsgV) (w : World) (hm : m.ok w) (hl : lightM m = true) :
    Calls Try.prog 86 #[.agg m.row] w fun e w' => e = .returned (.tuple #[.agg #[.int .i64 (1), .int .i64 (wB m), .int .i64 (priceM m)], .bool (mayMsgB m)]) ∧ Below w.heap.size w w' := by
  have hz0 := al2_0 w (.cells m.row 34) (.cells #[.int .i64 (0), .int .i64 (0), .int .i64 (0)] 113)
  have hz1 := al2_1 w (.cells m.row 34) (.cells #[.int .i64 (0), .int .i64 (0), .int .i64 (0)] 113)
  have hbA := al2_below w (.cells m.row 34) (.cells #[.int .i64 (0), .int .i64 (0), .int .i64 (0)] 113)
  have CT := fun W a (hr : RowAt W a ([m].flatMap MsgV.cellsL)) (hb : Below w.heap.size w W) => msgTx_any a 1 1 [m] W hr (fun x hx => by rw [List.mem_singleton.1 hx]; exact hm.below hb) rfl
  have CP := fun W (hb : Below w.heap.size w W) => price_light m W (hm.below hb) hl
  have hzr := wB_rng m
  have he1 := encTx_one m
  rw [← he1]
  unfold wB at hzr ⊢
  obtain ⟨⟨T, E⟩, hX⟩ : ∃ x, encTx [m] = x := ⟨_, rfl⟩
  simp only [hX] at CT hzr ⊢
  obtain ⟨p, hp⟩ : ∃ x, priceM m = x := ⟨_, rfl⟩
  simp only [hp] at CP ⊢
  obtain ⟨z, hz⟩ : ∃ z : Int, (T.size : Int) - 1 = z := ⟨_, rfl⟩
  rw [hz] at hzr ⊢
  have hsz : (T.size : Int) = z + 1 := by omega
  clear he1 hX hp
  go_enter Try.func86, Try.ntmps86
  go_upto_region 1 with fail
  refine wp_nameE _ (fun W1 hX => ?_)
  have hg : W1.heap[w.heap.size]? = some (.cells m.row 34 (0, 0)) := by rw [hX]; exact hz0
  have hZ : W1.heap[w.heap.size + 1]? = some (.cells #[.int .i64 (0), .int .i64 (0), .int .i64 (0)] 113 (0, 0)) := by rw [hX]; exact hz1
  have hbel : Below w.heap.size w W1 := by rw [hX]; exact hbA
  clear hX hz0 hz1 hbA
  have hgl : w.heap.size < W1.heap.size := (Array.getElem?_eq_some_iff.1 hg).1
  have hZl : w.heap.size + 1 < W1.heap.size := (Array.getElem?_eq_some_iff.1 hZ).1
  go_step
  refine wpList_load_mid rfl 34 (.tmp 1) rfl w.heap.size 0 rfl m.row.toList _ (rangeAt_row5 hg) Try.underlying34 rfl (msg_info _) ?_
  rw [Array.toArray_toList]
  refine wpList_one rfl (.tmp 7) 48 34 rfl (by rfl) (one_msg _ (MsgV.row_size _) _) ?_
  have hb : Below W1.heap.size W1 (W1.alloc (.cells m.row 34)) := Below.alloc (Below.refl _ _) (Nat.le_refl _) _
  have hg4 := heap_push W1 m.row 34
  obtain ⟨W7, hW7⟩ : ∃ W, W1.alloc (.cells m.row 34) = W := ⟨_, rfl⟩
  rw [hW7] at hb hg4 ⊢
  clear hW7
  have hr7 := msg_rowAt hg4
  have hg := cells_of hg hb hgl
  have hZ := cells_of hZ hb hZl
  have hgl := Nat.lt_of_lt_of_le hgl hb.size
  have hZl := Nat.lt_of_lt_of_le hZl hb.size
  have hbel := hbel.trans (hb.mono hbel.size)
  simp only [Act.put, List.setIfInBounds_toArray, List.set_cons_succ, List.set_cons_zero]
  have CC := CT W7 _ hr7 hbel
  clear hb hg4 CT
  go_upto_region 2 with (go_at_call 28; refine CC.mono ?_; rintro e w5 ⟨rfl, hb⟩; have hg := cells_of hg hb hgl; have hZ := cells_of hZ hb hZl; have hgl := Nat.lt_of_lt_of_le hgl hb.size; have hZl := Nat.lt_of_lt_of_le hZl hb.size; have hbel := hbel.trans (hb.mono hbel.size); clear hb)
  refine wp_nameE _ (fun W9 hX => ?_)
  have hm9 : W9.heap[w.heap.size]? = some (.cells m.row 34 (0, 0)) := by rw [hX]; exact hg
  have hZ9 : W9.heap[w.heap.size + 1]? = some (.cells #[.int .i64 (0), .int .i64 (0), .int .i64 (0)] 113 (0, 0)) := by rw [hX]; exact hZ
  have hbel9 : Below w.heap.size w W9 := by rw [hX]; exact hbel
  clear hX hg hZ hbel hgl hZl CC hr7
  have hml9 := (Array.getElem?_eq_some_iff.1 hm9).1
  have hZl9 := (Array.getElem?_eq_some_iff.1 hZ9).1
  have CP9 := CP
  clear CP
  refine wp_region_valsN [.string T, .int .i64 (T.size : Nat), .agg #[.int .i64 (0), .int .i64 (1), .int .i64 (0)], .int .i64 1, .int .i64 z, .agg m.row, .int .i64 p, .agg #[.int .i64 (1), .int .i64 (z), .int .i64 (p)], .int .i64 E, .bool (E == 0), undef, .bool (E == 0)] (fun D w' => w'.heap[w.heap.size]? = some (.cells m.row 34 (0, 0)) ∧ w'.heap[w.heap.size + 1]? = some (.cells (bif D 10 then #[.int .i64 (1), .int .i64 (z), .int .i64 (p)] else #[.int .i64 (0), .int .i64 (0), .int .i64 (0)]) 113 (0, 0)) ∧ Below w.heap.size w w') (by kernel_rfl) (by kernel_rfl) (by kernel_rfl) (by kernel_rfl) (fun x => by simp only [fillFrom, Act.put, List.setIfInBounds_toArray, List.set_cons_succ, List.set_cons_zero, Nat.zero_add, Nat.reduceAdd]; rfl) ?_ ?_ ?_
  case refine_2 =>
    refine ⟨?_, ?_, ?_, ?_, ?_, ?_, ?_, ?_, ?_, ?_, ?_, ?_, trivial⟩
    · intro D x w' hD hI hw hcl
      clear hw
      go_wp2_with fail
      refine ivPostN_mk rfl rfl ?_
      exact hI
    · intro D x w' hD hI hw hcl
      have d0 : x 0 = .string T := (hw 0 rfl).2
      clear hw
      go_wp2_with fail
      refine ivPostN_mk rfl rfl ?_
      exact hI
    · intro D x w' hD hI hw hcl
      clear hw
      go_wp2_with (go_at_call 89; refine (bt_empty _).mono ?_; rintro e wx ⟨rfl, hbx⟩)
      refine ivPostN_mk rfl rfl ?_
      exact ⟨cells_of hI.1 hbx (Array.getElem?_eq_some_iff.1 hI.1).1, cells_of hI.2.1 hbx (Array.getElem?_eq_some_iff.1 hI.2.1).1, hI.2.2.trans (hbx.mono hI.2.2.size)⟩
    · intro D x w' hD hI hw hcl
      have d2 : x 2 = .agg #[.int .i64 (0), .int .i64 (1), .int .i64 (0)] := (hw 2 rfl).2
      have hf : (Instr.field 113 (.agg #[.int .i64 (0), .int .i64 (1), .int .i64 (0)]) 1).run Try.prog w' = .ok (.int .i64 1) w' := by kernel_rfl
      clear hw
      go_wp2_with fail
      refine ivPostN_mk rfl rfl ?_
      exact hI
    · intro D x w' hD hI hw hcl
      have d1 : x 1 = .int .i64 (T.size : Nat) := (hw 1 rfl).2
      have d3 : x 3 = .int .i64 1 := (hw 3 rfl).2
      clear hw
      go_wp2_with fail
      refine ivPostN_mk rfl rfl ?_
      exact hI
    · intro D x w' hD hI hw hcl
      clear hw
      go_wp2_with (refine wpList_load_mid rfl 34 (.tmp 1) rfl w.heap.size 0 rfl m.row.toList _ (rangeAt_row5 hI.1) Try.underlying34 rfl (msg_info _) ?_; rw [Array.toArray_toList])
      refine ivPostN_mk rfl rfl ?_
      exact hI
    · intro D x w' hD hI hw hcl
      have d5 : x 5 = .agg m.row := (hw 5 rfl).2
      clear hw
      have CC := CP9 w' hI.2.2
      go_wp2_with (go_at_call 34; refine CC.mono ?_; rintro e wx ⟨rfl, hbx⟩)
      refine ivPostN_mk rfl rfl ?_
      exact ⟨cells_of hI.1 hbx (Array.getElem?_eq_some_iff.1 hI.1).1, cells_of hI.2.1 hbx (Array.getElem?_eq_some_iff.1 hI.2.1).1, hI.2.2.trans (hbx.mono hI.2.2.size)⟩
    · intro D x w' hD hI hw hcl
      have d4 : x 4 = .int .i64 z := (hw 4 rfl).2
      have d6 : x 6 = .int .i64 p := (hw 6 rfl).2
      clear hw
      go_wp2_with fail
      refine ivPostN_mk rfl rfl ?_
      exact hI
    · intro D x w' hD hI hw hcl
      clear hw
      go_wp2_with fail
      refine ivPostN_mk rfl rfl ?_
      exact hI
    · intro D x w' hD hI hw hcl
      have d8 : x 8 = .int .i64 E := (hw 8 rfl).2
      clear hw
      go_wp2_with fail
      refine ivPostN_mk rfl rfl ?_
      exact hI
    · intro D x w' hD hI hw hcl
      have d7 : x 7 = .agg #[.int .i64 (1), .int .i64 (z), .int .i64 (p)] := (hw 7 rfl).2
      clear hw
      simp only [d7]
      have hZ := hI.2.1
      rw [hD] at hZ
      have hZ : w'.heap[w.heap.size + 1]? = some (.cells #[.int .i64 (0), .int .i64 (0), .int .i64 (0)] 113 (0, 0)) := hZ
      go_wp2_with (refine wpList_storeRowTo (Z := #[.int .i64 (1), .int .i64 (z), .int .i64 (p)]) rfl (.tmp 2) (.tmp 19) 113 rfl (by kernel_rfl) rfl (by rfl) hZ rfl (ld_one _ _ _) ?_)
      refine ivPostN_no rfl ?_
      exact ⟨(setRow_other _ _ _ _ (by omega)).trans hI.1, setRow_heap _ _ _ _ _ _ hZ, below_setRow hI.2.2 (by omega) _⟩
    · intro D x w' hD hI hw hcl
      have d9 : x 9 = .bool (E == 0) := (hw 9 rfl).2
      clear hw
      go_wp2_with fail
      refine ivPostN_mk rfl rfl ?_
      exact hI
  case refine_1 => exact ⟨hm9, hZ9, hbel9.drew⟩
  intro w' hI x hx
  have d3 : x 11 = .bool (E == 0) := hx 11 (by decide)
  obtain ⟨_, hZ, hbel⟩ := hI
  have hZ : w'.heap[w.heap.size + 1]? = some (.cells #[.int .i64 (1), .int .i64 (z), .int .i64 (p)] 113 (0, 0)) := hZ
  simp only [d3]
  clear hx
  go_wp2
  have hrd := run_loadVar_mid (P := Try.prog) _ (w.heap.size + 1) 0 113 (#[.int .i64 (1), .int .i64 (z), .int .i64 (p)] : Array Value).toList _ (rangeAt_row5 hZ) Try.underlying113 rfl (by rfl)
  rw [Array.toArray_toList] at hrd
  refine bodyPost_ret (v := .tuple #[.agg #[.int .i64 (1), .int .i64 (z), .int .i64 (p)], .bool (E == 0)]) ?_ rfl ?_
  · simp [results, Try.results86, asAddr, hrd]
    try rfl
  exact ⟨rfl, hbel⟩
def beginL (up : List MsgV) : (Int × Int × Int) × Bool := match up with | [] => ((0, 1, 0), true) | m :: _ => ((1, 1 + wB m, priceM m), mayMsgB m)
set_option maxRecDepth 100000 in
set_option maxHeartbeats 6400000 in
theorem bt_begin (a : Option Addr) (n cap : Nat) (up : List MsgV) (w : World) (hr : RowAt w a (up.flatMap MsgV.cellsL)) (hok : ∀ m ∈ up, m.ok w) (hn : up.length = n) (hl : ∀ m ∈ up, lightM m = true) :
    Calls Try.prog 85 #[.slice a n cap] w fun e w' => e = .returned (.tuple #[.agg #[.int .i64 ((beginL up).1.1), .int .i64 ((beginL up).1.2.1), .int .i64 ((beginL up).1.2.2)], .bool (beginL up).2]) ∧ Below w.heap.size w w' := by
  have hz0 := heap_push w #[.int .i64 (0), .int .i64 (0), .int .i64 (0)] 113
  have hb0 : Below w.heap.size w (w.alloc (.cells #[.int .i64 (0), .int .i64 (0), .int .i64 (0)] 113)) := Below.alloc (Below.refl _ _) (Nat.le_refl _) _
  cases up with
  | nil =>
    subst hn
    go_enter Try.func85, Try.ntmps85
    go_upto_region 2 with fail
    refine wp_nameE _ (fun W1 hX => ?_)
    have hZ : W1.heap[w.heap.size]? = some (.cells #[.int .i64 (0), .int .i64 (0), .int .i64 (0)] 113 (0, 0)) := by rw [hX]; exact hz0
    have hbel : Below w.heap.size w W1 := by rw [hX]; exact hb0
    clear hX hz0 hb0
    have hzl : w.heap.size < W1.heap.size := (Array.getElem?_eq_some_iff.1 hZ).1
    go_wp2_with (first | (go_at_call 89; refine (bt_empty _).mono ?_; rintro e wx ⟨rfl, hb⟩; have hZ := cells_of hZ hb hzl; have hbel := hbel.trans (hb.mono hbel.size)) | (refine wpList_storeRowTo (Z := #[.int .i64 (0), .int .i64 (1), .int .i64 (0)]) rfl (.tmp 2) (.tmp 9) 113 rfl (by kernel_rfl) rfl (by rfl) hZ rfl (ld_one _ _ _) ?_))
    have hZ := setRow_heap _ _ _ #[.int .i64 (0), .int .i64 (1), .int .i64 (0)] _ _ hZ
    have hrd := run_loadVar_mid (P := Try.prog) _ w.heap.size 0 113 (#[.int .i64 (0), .int .i64 (1), .int .i64 (0)] : Array Value).toList _ (rangeAt_row5 hZ) Try.underlying113 rfl (by rfl)
    rw [Array.toArray_toList] at hrd
    refine bodyPost_ret (v := .tuple #[.agg #[.int .i64 (0), .int .i64 (1), .int .i64 (0)], .bool true]) ?_ rfl ?_
    · simp [results, Try.results85, asAddr, hrd]
      try rfl
    exact ⟨rfl, below_setRow hbel (Nat.le_refl _) _⟩
  | cons m up =>
    obtain ⟨b1, o1, rfl, hb1, hg1⟩ := msg_range hr (k := 0) (by simp)
    have hok1 := hok m (List.mem_cons_self ..)
    have hl1 := hl m (List.mem_cons_self ..)
    have hg1 : w.rangeAt b1 (o1 + 0 * 50) m.row.toList := hg1
    have CW := fun W (hb : Below w.heap.size w W) => bt_weigh m W (hok1.below hb) hl1
    have hzr := wB_rng m
    have hpr := price_rng hl1
    show Calls _ _ _ _ fun e w' => e = .returned (.tuple #[.agg #[.int .i64 (1), .int .i64 (1 + wB m), .int .i64 (priceM m)], .bool (mayMsgB m)]) ∧ _
    obtain ⟨z, hz⟩ : ∃ z, wB m = z := ⟨_, rfl⟩
    obtain ⟨p, hp⟩ : ∃ z, priceM m = z := ⟨_, rfl⟩
    obtain ⟨k, hk⟩ : ∃ z, mayMsgB m = z := ⟨_, rfl⟩
    simp only [hz, hp, hk] at CW hzr hpr ⊢
    have hn0 : 0 < n := by rw [← hn]; simp
    have d0 : ((n : Int) == 0) = false := beq_eq_false_iff_ne.2 (by omega)
    have d0n : (n == 0) = false := beq_eq_false_iff_ne.2 (by omega)
    have d1 : decide ((0 : Int) < (n : Int)) = true := decide_eq_true (by omega)
    have d1n : decide (0 < n) = true := decide_eq_true hn0
    clear hz hp hk hok hl hn
    go_enter Try.func85, Try.ntmps85
    go_upto_region 3 with fail
    refine wp_nameE _ (fun W1 hX => ?_)
    have hZ : W1.heap[w.heap.size]? = some (.cells #[.int .i64 (0), .int .i64 (0), .int .i64 (0)] 113 (0, 0)) := by rw [hX]; exact hz0
    have hbel : Below w.heap.size w W1 := by rw [hX]; exact hb0
    clear hX hz0 hb0
    have hg1 : W1.rangeAt b1 (o1 + 0 * 50) m.row.toList := fun j v hv => (hbel.cell (p := ⟨b1, _, none⟩) hb1).trans (hg1 j v hv)
    have hzl : w.heap.size < W1.heap.size := (Array.getElem?_eq_some_iff.1 hZ).1
    go_upto_region 4 with (first | (refine wpList_load_mid rfl 34 (.tmp 12) rfl b1 _ rfl m.row.toList _ hg1 Try.underlying34 rfl (msg_info _) ?_; rw [Array.toArray_toList]) | (go_at_call 86; refine (CW _ hbel).mono ?_; rintro e w3 ⟨rfl, hb⟩; have hZ := cells_of hZ hb hzl; have hzl := Nat.lt_of_lt_of_le hzl hb.size; have hbel := hbel.trans (hb.mono hbel.size); clear hb))
    have hq := heap_push w3 #[.int .i64 (1), .int .i64 (z), .int .i64 (p)] 113
    have hb3 : Below w3.heap.size w3 (w3.alloc (.cells #[.int .i64 (1), .int .i64 (z), .int .i64 (p)] 113)) := Below.alloc (Below.refl _ _) (Nat.le_refl _) _
    refine wp_nameE _ (fun W4 hX => ?_)
    have hx4 : W4.heap[w3.heap.size]? = some (.cells #[.int .i64 (1), .int .i64 (z), .int .i64 (p)] 113 (0, 0)) := by rw [hX]; exact hq
    have hZ4 : W4.heap[w.heap.size]? = some (.cells #[.int .i64 (0), .int .i64 (0), .int .i64 (0)] 113 (0, 0)) := by rw [hX]; exact cells_of hZ hb3 hzl
    have hbel4 : Below w.heap.size w W4 := by rw [hX]; exact hbel.trans (hb3.mono hbel.size)
    clear hX hq hb3 hZ hbel hg1
    obtain ⟨g, hg⟩ : ∃ g, w3.heap.size = g := ⟨_, rfl⟩
    rw [hg] at hx4 hzl
    simp only [hg]
    clear hg
    have CA := fun W => bt_and 0 1 0 1 z p W ⟨by decide, by decide⟩ ⟨by decide, by decide⟩ ⟨by decide, by decide⟩ ⟨by decide, by decide⟩ ⟨by omega, by omega⟩ ⟨by omega, by omega⟩
    simp only [Int.zero_add] at CA
    refine wp_region_valsN [.agg #[.int .i64 (0), .int .i64 (1), .int .i64 (0)], .agg #[.int .i64 (1), .int .i64 (z), .int .i64 (p)], .agg #[.int .i64 (1), .int .i64 (1 + z), .int .i64 (p)], .bool k, undef, .bool k] (fun D w' => w'.heap[w.heap.size]? = some (.cells (bif D 4 then #[.int .i64 (1), .int .i64 (1 + z), .int .i64 (p)] else #[.int .i64 (0), .int .i64 (0), .int .i64 (0)]) 113 (0, 0)) ∧ w'.heap[g]? = some (.cells #[.int .i64 (1), .int .i64 (z), .int .i64 (p)] 113 (0, 0)) ∧ Below w.heap.size w w') (by kernel_rfl) (by kernel_rfl) (by kernel_rfl) (by kernel_rfl) (fun x => by simp only [fillFrom, Act.put, List.setIfInBounds_toArray, List.set_cons_succ, List.set_cons_zero, Nat.zero_add, Nat.reduceAdd]; rfl) ?_ ?_ ?_
    case refine_2 =>
      refine ⟨?_, ?_, ?_, ?_, ?_, ?_, trivial⟩
      · intro D x w' hD hI hw hcl
        clear hw
        go_wp2_with (go_at_call 89; refine (bt_empty _).mono ?_; rintro e wx ⟨rfl, hbx⟩)
        refine ivPostN_mk rfl rfl ?_
        exact ⟨cells_of hI.1 hbx (Array.getElem?_eq_some_iff.1 hI.1).1, cells_of hI.2.1 hbx (Array.getElem?_eq_some_iff.1 hI.2.1).1, hI.2.2.trans (hbx.mono hI.2.2.size)⟩
      · intro D x w' hD hI hw hcl
        clear hw
        go_wp2_with (refine wpList_load_mid rfl 113 (.tmp 4) rfl g 0 rfl (#[.int .i64 (1), .int .i64 (z), .int .i64 (p)] : Array Value).toList _ (rangeAt_row5 hI.2.1) Try.underlying113 rfl (by rfl) ?_; rw [Array.toArray_toList])
        refine ivPostN_mk rfl rfl ?_
        exact hI
      · intro D x w' hD hI hw hcl
        have d0 : x 0 = .agg #[.int .i64 (0), .int .i64 (1), .int .i64 (0)] := (hw 0 rfl).2
        have d1 : x 1 = .agg #[.int .i64 (1), .int .i64 (z), .int .i64 (p)] := (hw 1 rfl).2
        clear hw
        go_wp2_with (go_at_call 87; refine (CA _).mono ?_; rintro e wx ⟨rfl, hbx⟩)
        refine ivPostN_mk rfl rfl ?_
        exact ⟨cells_of hI.1 hbx (Array.getElem?_eq_some_iff.1 hI.1).1, cells_of hI.2.1 hbx (Array.getElem?_eq_some_iff.1 hI.2.1).1, hI.2.2.trans (hbx.mono hI.2.2.size)⟩
      · intro D x w' hD hI hw hcl
        clear hw
        go_wp2_with fail
        refine ivPostN_mk rfl rfl ?_
        exact hI
      · intro D x w' hD hI hw hcl
        have d2 : x 2 = .agg #[.int .i64 (1), .int .i64 (1 + z), .int .i64 (p)] := (hw 2 rfl).2
        clear hw
        simp only [d2]
        have hZ := hI.1
        rw [hD] at hZ
        have hZ : w'.heap[w.heap.size]? = some (.cells #[.int .i64 (0), .int .i64 (0), .int .i64 (0)] 113 (0, 0)) := hZ
        go_wp2_with (refine wpList_storeRowTo (Z := #[.int .i64 (1), .int .i64 (1 + z), .int .i64 (p)]) rfl (.tmp 2) (.tmp 19) 113 rfl (by kernel_rfl) rfl (by rfl) hZ rfl (ld_one _ _ _) ?_)
        refine ivPostN_no rfl ?_
        exact ⟨setRow_heap _ _ _ _ _ _ hZ, (setRow_other _ _ _ _ (by omega)).trans hI.2.1, below_setRow hI.2.2 (Nat.le_refl _) _⟩
      · intro D x w' hD hI hw hcl
        have d3 : x 3 = .bool k := (hw 3 rfl).2
        clear hw
        go_wp2_with fail
        refine ivPostN_mk rfl rfl ?_
        exact hI
    case refine_1 => exact ⟨hZ4, hx4, hbel4.drew⟩
    intro w' hI x hx
    have d5 : x 5 = .bool k := hx 5 (by decide)
    obtain ⟨hZ, _, hbel⟩ := hI
    have hZ : w'.heap[w.heap.size]? = some (.cells #[.int .i64 (1), .int .i64 (1 + z), .int .i64 (p)] 113 (0, 0)) := hZ
    simp only [d5]
    clear hx
    go_wp2
    have hrd := run_loadVar_mid (P := Try.prog) _ w.heap.size 0 113 (#[.int .i64 (1), .int .i64 (1 + z), .int .i64 (p)] : Array Value).toList _ (rangeAt_row5 hZ) Try.underlying113 rfl (by rfl)
    rw [Array.toArray_toList] at hrd
    refine bodyPost_ret (v := .tuple #[.agg #[.int .i64 (1), .int .i64 (1 + z), .int .i64 (p)], .bool k]) ?_ rfl ?_
    · simp [results, Try.results85, asAddr, hrd]
      try rfl
    exact ⟨rfl, hbel⟩
end Go.Proofs.Ythipnkbfdkmhaaa
