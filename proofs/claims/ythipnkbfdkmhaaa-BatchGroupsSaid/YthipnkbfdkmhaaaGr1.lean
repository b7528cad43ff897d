/- Items as keys of a map; the numbers of groups; batch.Groups walked. -/
import Derived.Test.YthipnkbfdkmhaaaBt3
import Derived.Test.YthipnkbfdkmhaaaBtF
import Derived.DeepKeys4
import Derived.Maps.OwnSet
import Derived.Maps.OwnOps
import Derived.Maps.OwnRows
import Derived.BigRegion
import Derived.RegionTactic
import Derived.BigQuiet
import Derived.Deep.QuietTactic
import Derived.Deep.MidRow
import Derived.LoopTactic
import Derived.BigFrame
import Derived.WalkKit
import Derived.ProofKit
import Derived.Handy
import Derived.Below
import Derived.Lib.Hide
import Derived.IntWalk
import Derived.Outline
import Derived.WalkLawsBesides
import Derived.WalkSpells
namespace Go.Proofs.Ythipnkbfdkmhaaa
open Go.RowKit
attribute [local go_sem] strV
set_option linter.unusedVariables false
theorem laidOutG : laidOutB Try.prog = true := by kernel_rfl
theorem item_keyed : Maps.Keyed Try.prog 72 := Maps.Keyed.of_law (deep_law_laid laidOutG (m := 3) (by omega) (of_decide_eq_true (by kernel_rfl)) (by kernel_rfl) (by kernel_rfl))
structure ItV where
  kd : Int
  to : Int
  port : ByteArray
  ch : Int
  sq : Int
def ItV.row (x : ItV) : Array Value := #[.int .i64 x.kd, .int .i64 x.to, .string x.port, .int .i64 x.ch, .int .i64 x.sq]
structure ItV.wf (x : ItV) : Prop where
  kd : (Lit.int .i64 x.kd).wf = true
  to : (Lit.int .i64 x.to).wf = true
  port : x.port.size ≤ maxLen
  ch : (Lit.int .i64 x.ch).wf = true
  sq : (Lit.int .i64 x.sq).wf = true
theorem lits_int (n : Nat) {v : Int} (h : (Lit.int .i64 v).wf = true) : Try.prog.keyLits (n + 1) 3 [.int .i64 v] = some [.int .i64 v] := by
  unfold Program.keyLits
  rw [Try.underlying3]
  simp [h]
theorem lits_str (n : Nat) {s : ByteArray} (h : s.size ≤ maxLen) : Try.prog.keyLits (n + 1) 9 [.string s] = some [.string s.data.toList] := by
  unfold Program.keyLits
  rw [Try.underlying9]
  simp [h]
theorem lits_end (n : Nat) {s : ByteArray} {c : Int} (h : s.size ≤ maxLen) (h2 : (Lit.int .i64 c).wf = true) : Try.prog.keyLits (n + 2) 27 [.string s, .int .i64 c] = some [.string s.data.toList, .int .i64 c] := by
  have c27 : Try.prog.cellsOf 27 = 2 := by kernel_rfl
  have c3 : Try.prog.cellsOf 3 = 1 := by kernel_rfl
  have c9 : Try.prog.cellsOf 9 = 1 := by kernel_rfl
  unfold Program.keyLits
  rw [Try.underlying27]
  simp [c27, c3, c9, lits_int n h2, lits_str n h]
/-- What an item reads as, as a key. -/
def ItV.lit (x : ItV) : Lit := .string (keyBytes [.int .i64 x.kd, .int .i64 x.to, .string x.port.data.toList, .int .i64 x.ch, .int .i64 x.sq])
theorem ItV.key {x : ItV} (h : x.wf) : keyOf Try.prog 72 (.agg x.row) = some x.lit := by
  have hk : Try.prog.keyType 72 = true := by kernel_rfl
  have hf : (Value.agg x.row).formed Try.prog 72 = true := by kernel_rfl
  unfold keyOf
  rw [Try.underlying72]
  simp only [hk, hf, Bool.and_self, if_true]
  have hsz : (Try.prog.types.size - 4 + 5 == Try.prog.types.size + 1) = true := by kernel_rfl
  obtain ⟨n, hn⟩ : ∃ n, Try.prog.types.size + 1 = n + 5 := ⟨Try.prog.types.size - 4, (beq_iff_eq.1 hsz).symm⟩
  rw [hn]
  have c72 : Try.prog.cellsOf 72 = 5 := by kernel_rfl
  have c27 : Try.prog.cellsOf 27 = 2 := by kernel_rfl
  have c3 : Try.prog.cellsOf 3 = 1 := by kernel_rfl
  have h1 : Try.prog.keyLits (n + 5) 72 (Value.agg x.row).cells.toList = some [.int .i64 x.kd, .int .i64 x.to, .string x.port.data.toList, .int .i64 x.ch, .int .i64 x.sq] := by
    unfold Program.keyLits
    rw [Try.underlying72]
    simp [ItV.row, Value.cells, c72, c27, c3, lits_int (n + 3) h.kd, lits_int (n + 3) h.to, lits_int (n + 3) h.sq, lits_end (n + 2) h.port h.ch]
  rw [h1]; rfl
theorem item_row_inj {x y : ItV} (h : x.row = y.row) : x = y := by
  cases x; cases y
  simpa [ItV.row] using h
theorem ItV.lit_inj {x y : ItV} (hx : x.wf) (hy : y.wf) (h : x.lit = y.lit) : x = y := by
  have h1 := ItV.key hx
  rw [h] at h1
  have := item_keyed.inj h1 (ItV.key hy)
  exact item_row_inj (by injection this)
set_option maxRecDepth 100000 in
theorem ItV.isKey {x : ItV} (h : x.wf) : WideAt.IsKeyLit x.lit := item_keyed.key (ItV.key h)
/-- An item without its number. -/
def ItV.top (x : ItV) : ItV := { x with sq := 0 }
theorem ItV.top_wf {x : ItV} (h : x.wf) : x.top.wf := ⟨h.kd, h.to, h.port, h.ch, (by decide : (Lit.int .i64 0).wf = true)⟩
instance : DecidableEq ItV := fun x y => decidable_of_iff (x.kd = y.kd ∧ x.to = y.to ∧ x.port = y.port ∧ x.ch = y.ch ∧ x.sq = y.sq) (by cases x; cases y; simp)
/-- The number of a key among those that came so far; 0: none. -/
def numOf (ks : List ItV) (k : ItV) : Nat := if k ∈ ks then ks.idxOf k + 1 else 0
def inGroup (j : ItV × Bool) : Bool := j.2 && (j.1.kd == 1 || j.1.kd == 2)
def grStep (s : List ItV × List Int) (j : ItV × Bool) : List ItV × List Int :=
  if inGroup j = true then (if j.1.top ∈ s.1 then (s.1, s.2 ++ [((numOf s.1 j.1.top : Nat) : Int)]) else (s.1 ++ [j.1.top], s.2 ++ [((s.1.length + 1 : Nat) : Int)])) else (s.1, s.2 ++ [0])
def grF (js : List (ItV × Bool)) : List ItV × List Int := js.foldl grStep ([], [])
theorem grF_take {js : List (ItV × Bool)} {k : Nat} (hk : k < js.length) : grF (js.take (k + 1)) = grStep (grF (js.take k)) js[k] := by
  unfold grF
  rw [List.take_succ_eq_append_getElem hk, List.foldl_append]; rfl
theorem numOf_new (ks : List ItV) {k : ItV} (h : k ∉ ks) : numOf (ks ++ [k]) k = ks.length + 1 := by
  unfold numOf
  rw [if_pos (by simp), List.idxOf_append, if_neg h]
  simp
theorem numOf_old (ks : List ItV) {k j : ItV} (h : j ≠ k) : numOf (ks ++ [k]) j = numOf ks j := by
  unfold numOf
  by_cases hj : j ∈ ks
  · rw [if_pos (by simp [hj]), if_pos hj, List.idxOf_append, if_pos hj]
  · rw [if_neg (by simp [hj, h]), if_neg hj]
theorem lit_intG {a b : Int} (h : (DataW.lit (.int .i64 a) : DataW Unit) = .lit (.int .i64 b)) : a = b := by
  injection h with h
  injection h
theorem own_lowerG {w : World} {base B : Nat} {e : TypeId} {size n : Nat} {v : Value} {xs : List Value} (h : w.ownsRow base e size v n xs) (hb : B ≤ base) : w.ownsRow B e size v n xs := by
  refine ⟨h.1, ?_⟩
  rcases h.2 with hn | ⟨g, cap, cur, h1, h2, h3⟩
  · exact .inl hn
  · exact .inr ⟨g, cap, cur, h1, Nat.le_trans hb h2, h3⟩
/-- The map of the numbers. -/
structure MapIs (D : DataW Unit) (ks : List ItV) : Prop where
  at_ : ∀ z : ItV, z.wf → D.atKey z.lit (.lit (.int .i64 0)) = .lit (.int .i64 (numOf ks z : Nat))
  size : Maps.size D = ks.length
  has : ∀ z : ItV, z.wf → Maps.has D z.lit = decide (z ∈ ks)
theorem MapIs.nil : MapIs (.map []) [] := ⟨fun z _ => rfl, rfl, fun z _ => rfl⟩
theorem MapIs.put {D : DataW Unit} {ks : List ItV} {k : ItV} (h : MapIs D ks) (hT : Maps.Tidy D) (hk : k.wf) (hn : k ∉ ks) : MapIs (D.put k.lit (.lit (.int .i64 ((ks.length + 1 : Nat) : Int)))) (ks ++ [k]) := by
  refine ⟨fun z hz => ?_, ?_, fun z hz => ?_⟩
  · by_cases hzk : z = k
    · subst hzk
      rw [Maps.atKey_put_same hT.isMap (ItV.isKey hk), numOf_new ks hn]
    · rw [Maps.atKey_put_other (fun e => hzk (ItV.lit_inj hz hk e)), numOf_old ks hzk, h.at_ z hz]
  · rw [Maps.size_put hT, h.has k hk, decide_eq_false hn, List.length_append, h.size]; rfl
  · by_cases hzk : z = k
    · subst hzk
      rw [Maps.has_put_same hT.isMap (ItV.isKey hk)]; simp
    · rw [Maps.has_put_other (fun e => hzk (ItV.lit_inj hz hk e)), h.has z hz]; simp [hzk]
def jobL (j : ItV × Bool) : List Value := [.int .i64 j.1.kd, .int .i64 j.1.to, .string j.1.port, .int .i64 j.1.ch, .int .i64 j.1.sq, .string ⟨#[]⟩, .int .i64 0, .string ⟨#[]⟩, .int .i64 0, .int .i64 0, .string ⟨#[]⟩, .int .i64 0, .int .i64 0, .string ⟨#[]⟩, .int .i64 0, .int .i64 0, .bool j.2]
theorem jobL_len (j : ItV × Bool) : (jobL j).length = 17 := rfl
theorem job_range {w : World} {a : Option Addr} {js : List (ItV × Bool)} (h : RowAt w a (js.flatMap jobL)) {k : Nat} (hk : k < js.length) :
    ∃ b off, a = some ⟨b, off, none⟩ ∧ b < w.heap.size ∧ w.rangeAt b (off + k * 17) (jobL js[k]) := by
  obtain ⟨b, off, ha, hb, hc⟩ := h.elem jobL_len hk (by decide)
  refine ⟨b, off, ha, hb, fun j v hv => ?_⟩
  have hj : j < 17 := by have := (List.getElem?_eq_some_iff.1 hv).1; rwa [jobL_len] at this
  rw [Nat.add_assoc, hc j hj, hv]
theorem grF_len (js : List (ItV × Bool)) : ∀ k, k ≤ js.length → (grF (js.take k)).2.length = k ∧ (grF (js.take k)).1.length ≤ k := by
  intro k
  induction k with
  | zero => intro _; exact ⟨rfl, Nat.le_refl _⟩
  | succ k ih =>
    intro hk
    obtain ⟨h1, h2⟩ := ih (by omega)
    rw [grF_take (by omega)]
    unfold grStep
    split
    · split
      · simp only [List.length_append, List.length_singleton]; omega
      · simp only [List.length_append, List.length_singleton]; omega
    · simp only [List.length_append, List.length_singleton]; omega
set_option maxRecDepth 100000 in
set_option maxHeartbeats 12800000 in
theorem groups_any (a : Option Addr) (n cap : Nat) (js : List (ItV × Bool)) (w : World) (hr : RowAt w a (js.flatMap jobL)) (hn : js.length = n) (hn6 : n ≤ 1000) (hwf : ∀ j ∈ js, j.1.wf) :
    Calls Try.prog 45 #[.slice a n cap] w fun e w' => ∃ v, e = .returned v ∧ w'.ownsRow w.heap.size 3 1 v n ((grF js).2.map (Value.int .i64)) ∧ Below w.heap.size w w' := by
  have HN := Lib.hid hn
  have hmm := @run_makeMap Try.prog
  clear hn
  obtain ⟨i0, hi, hzI, hsI, hbI⟩ := info_parts Try.infoI
  have hm0 := World.ownsMap_made (H := Unit) w Try.prog 72 (plainElem Try.prog 3)
  have hb0 : Below w.heap.size w (w.alloc (.map #[] 0)) := Below.alloc (Below.refl _ _) (Nat.le_refl _) _
  have hsz0 : (w.alloc (.map #[] 0)).heap.size = w.heap.size + 1 := Array.size_push _
  go_enter Try.func45, Try.ntmps45
  go_upto_region 4 with fail
  refine wp_nameE _ (fun W3 hX => ?_)
  have hM : W3.ownsMap (H := Unit) Try.prog 72 (plainElem Try.prog 3) w.heap.size 0 (.map []) := by rw [hX]; exact hm0
  have hbel : Below w.heap.size w W3 := by rw [hX]; exact hb0
  have hs3 : w.heap.size + 1 ≤ W3.heap.size := by rw [hX, hsz0]; exact Nat.le_refl _
  clear hX hm0 hb0 hsz0 hmm
  go_loopw [3, 13] (fun v i wr => ∃ (k : Nat) (D : DataW Unit), k ≤ n ∧ i = .int .i64 k ∧ wr.ownsRow (w.heap.size + 1) 3 1 v (grF (js.take k)).2.length ((grF (js.take k)).2.map (Value.int .i64)) ∧ wr.ownsMap Try.prog 72 (plainElem Try.prog 3) w.heap.size k D ∧ Hid (MapIs D (grF (js.take k)).1) ∧ Hid (∀ z ∈ (grF (js.take k)).1, z.wf) ∧ w.heap.size + 1 ≤ wr.heap.size ∧ Below w.heap.size w wr) (fun _ i _ => n - (intOf i).toNat)
  case atStart => exact ⟨0, .map [], Nat.zero_le _, rfl, ⟨rfl, .inl ⟨rfl, rfl⟩⟩, hM, Lib.hid MapIs.nil, Lib.hid (fun z hz => by cases hz), hs3, hbel⟩
  case round =>
    clear hM hbel hs3
    obtain ⟨k, D, hk, rfl, hown, hM, HD, HW, hs3, hbel⟩ := hrel
    by_cases hlt : k < n
    rotate_left
    · have d9 : decide ((k : Int) < (n : Int)) = false := decide_eq_false (by omega)
      have d9n : decide (k < n) = false := decide_eq_false hlt
      have hl9 := (grF_len js k (by rw [HN.out]; omega)).1
      rw [hl9, List.take_of_length_le (by rw [HN.out]; omega)] at hown
      obtain rfl : k = n := by omega
      clear hl9
      go_wp2
      go_ret
      exact ⟨_, rfl, own_lowerG hown (by omega), hbel⟩
    have d1 : decide ((k : Int) < (n : Int)) = true := decide_eq_true (by omega)
    have d1n : decide (k < n) = true := decide_eq_true hlt
    have hkl : k < js.length := by rw [HN.out]; exact hlt
    obtain ⟨b1, o1, rfl, hb1, hg1⟩ := job_range (hr.below hbel) hkl
    have hjw := hwf _ (List.getElem_mem hkl)
    have hst := grF_take hkl
    obtain ⟨hl1, hl2⟩ := grF_len js k (by omega)
    obtain ⟨j, hj9⟩ : ∃ p, js[k] = p := ⟨_, rfl⟩
    rw [hj9] at hg1 hjw hst
    obtain ⟨x, od⟩ := j
    obtain ⟨⟨ks, os⟩, hS⟩ : ∃ p, grF (js.take k) = p := ⟨_, rfl⟩
    rw [hS] at hown HD HW hst hl1 hl2
    unfold grStep inGroup at hst
    have HST := Lib.hid hst
    have HJW := Lib.hid (show x.wf from hjw)
    clear hj9 hjw hst hS
    have n0 : (0 : Int) ≤ (k : Int) := by omega
    have n1 : (k : Int) < (n : Int) := by omega
    have n2 : ((k : Nat) : Int).toNat = k := by omega
    have hl2 : ks.length ≤ k := hl2
    have hl1 : os.length = k := hl1
    have hone : (#[.int .i64 x.kd, .int .i64 x.to, .string x.port, .int .i64 x.ch, .int .i64 x.sq, .string ⟨#[]⟩, .int .i64 0, .string ⟨#[]⟩, .int .i64 0, .int .i64 0, .string ⟨#[]⟩, .int .i64 0, .int .i64 0, .string ⟨#[]⟩, .int .i64 0, .int .i64 0, .bool od] : Array Value).all (·.oneCell') = true := by simp [Value.oneCell']
    have hg2 : wr.rangeAt b1 (o1 + k * 17) (#[.int .i64 x.kd, .int .i64 x.to, .string x.port, .int .i64 x.ch, .int .i64 x.sq, .string ⟨#[]⟩, .int .i64 0, .string ⟨#[]⟩, .int .i64 0, .int .i64 0, .string ⟨#[]⟩, .int .i64 0, .int .i64 0, .string ⟨#[]⟩, .int .i64 0, .int .i64 0, .bool od] : Array Value).toList := hg1
    clear hg1
    have hown : wr.ownsRow (w.heap.size + 1) 3 1 u3 os.length (os.map (Value.int .i64)) := hown
    go_upto_region 6 with (first | (refine wpList_load_mid rfl 74 (.tmp 15) rfl b1 _ rfl ((#[.int .i64 x.kd, .int .i64 x.to, .string x.port, .int .i64 x.ch, .int .i64 x.sq, .string ⟨#[]⟩, .int .i64 0, .string ⟨#[]⟩, .int .i64 0, .int .i64 0, .string ⟨#[]⟩, .int .i64 0, .int .i64 0, .string ⟨#[]⟩, .int .i64 0, .int .i64 0, .bool od] : Array Value).toList) _ hg2 Try.underlying74 rfl (by rfl) ?_; rw [Array.toArray_toList]) | (refine wpList_storeRowTo (Z := #[.int .i64 x.kd, .int .i64 x.to, .string x.port, .int .i64 x.ch, .int .i64 x.sq, .string ⟨#[]⟩, .int .i64 0, .string ⟨#[]⟩, .int .i64 0, .int .i64 0, .string ⟨#[]⟩, .int .i64 0, .int .i64 0, .string ⟨#[]⟩, .int .i64 0, .int .i64 0, .bool od]) rfl (.tmp 6) (.tmp 16) 74 rfl (by kernel_rfl) rfl (by rfl) (heap_push _ _ _) rfl hone ?_))
    refine wp_nameE _ (fun W6 hX => ?_)
    have hA : Below wr.heap.size wr W6 := by rw [hX]; exact below_setRow (Below.alloc (Below.refl _ _) (Nat.le_refl _) _) (Nat.le_refl _) _
    have h6 : W6.heap[wr.heap.size]? = some (.cells #[.int .i64 x.kd, .int .i64 x.to, .string x.port, .int .i64 x.ch, .int .i64 x.sq, .string ⟨#[]⟩, .int .i64 0, .string ⟨#[]⟩, .int .i64 0, .int .i64 0, .string ⟨#[]⟩, .int .i64 0, .int .i64 0, .string ⟨#[]⟩, .int .i64 0, .int .i64 0, .bool od] 74 (0, 0)) := by rw [hX]; exact setRow_heap _ _ _ _ _ _ (heap_push _ _ _)
    have hown := own_kept9 hown hA
    have hM := hM.kept (grown_below hA) (by simp)
    have hs6 : w.heap.size + 1 ≤ W6.heap.size := Nat.le_trans hs3 hA.size
    have hbel := hbel.trans (hA.mono hbel.size)
    obtain ⟨g6, hg6⟩ : ∃ g, wr.heap.size = g := ⟨_, rfl⟩
    rw [hg6] at h6
    simp only [hg6]
    clear hX hA hg6 hg2 hone
    have h6l := (Array.getElem?_eq_some_iff.1 h6).1
    have c0 : W6.cell? ⟨g6, 0, none⟩ = some (.int .i64 x.kd) := cell_heap h6 0
    have c16 : W6.cell? ⟨g6, 16, none⟩ = some (.bool od) := cell_heap h6 16
    obtain ⟨k1, hk1⟩ : ∃ b, (x.kd == 1) = b := ⟨_, rfl⟩
    obtain ⟨k2, hk2⟩ : ∃ b, (x.kd == 2) = b := ⟨_, rfl⟩
    have HK1 := Lib.hid hk1
    have HK2 := Lib.hid hk2
    have out : (od && (k1 || k2)) = false → grF (js.take (k + 1)) = (ks, os ++ [0]) := fun h => by
      rw [HST.out]
      simp only [HK1.out, HK2.out]
      rw [h, if_neg Bool.false_ne_true]
    have inn : (od && (k1 || k2)) = true → grF (js.take (k + 1)) = (if x.top ∈ ks then (ks, os ++ [((numOf ks x.top : Nat) : Int)]) else (ks ++ [x.top], os ++ [((ks.length + 1 : Nat) : Int)])) := fun h => by
      rw [HST.out]
      simp only [HK1.out, HK2.out]
      rw [h, if_pos rfl]
    have HOUT := Lib.hid out
    have HINN := Lib.hid inn
    clear out inn HST
    have out8 : (od && (k1 || k2)) = false → True := fun _ => trivial
    clear out8
    cases od
    · go_wp2_with (at_builtin; refine wpList_append_own _ rfl (.tmp 31) (.tmp 32) 59 rfl (w.heap.size + 1) 3 i0 (.int .i64 0) 1 8 Try.underlying59 hi hzI hsI hbI rfl (by decide) _ _ _ rfl (hown.alloc _) ⟨W6.heap.size, 0, none⟩ 1 1 [.int .i64 0] rfl rfl (cell_one_new _ _ _) (fun u hu => by rw [List.mem_singleton.1 hu]; rfl) (by unfold maxLen; omega) (by omega) (Nat.le_trans hs6 (Nat.le_of_lt (by simp))) ?_; intro v8 w8 hown8 hgr8 _)
      have hgr8 : World.grownBy _ w8 u3.ownBlock := hgr8
      have hM := (hM.alloc _).kept hgr8 (fun e => by have := (hown.lt _ e.symm).1; omega)
      have hb8 := hbel.trans (((Below.alloc (Below.refl W6.heap.size W6) (Nat.le_refl _) _).mono hbel.size).trans ((below_grown (hown.alloc _) hgr8 (Nat.le_trans hs6 (Nat.le_of_lt (by simp)))).mono (by omega)))
      have hs8 := Nat.le_trans hs6 (Nat.le_trans (Nat.le_of_lt (by simp)) hgr8.size)
      have e9 := HOUT.out rfl
      go_roundw
      case rel => exact ⟨k + 1, D, by omega, by go_num, by rw [e9, List.length_append, List.map_append]; exact hown8, hM.mono (by omega), by rw [e9]; exact HD, by rw [e9]; exact HW, hs8, hb8⟩
      case measure => (simp [intOf]) <;> omega
    · cases k1
      · have hk1n : (x.kd != 1) = true := by rw [bne, hk1]; rfl
        cases k2
        · have hk2n : (x.kd != 2) = true := by rw [bne, hk2]; rfl
          go_wp2_with (at_builtin; refine wpList_append_own _ rfl (.tmp 31) (.tmp 32) 59 rfl (w.heap.size + 1) 3 i0 (.int .i64 0) 1 8 Try.underlying59 hi hzI hsI hbI rfl (by decide) _ _ _ rfl (hown.alloc _) ⟨W6.heap.size, 0, none⟩ 1 1 [.int .i64 0] rfl rfl (cell_one_new _ _ _) (fun u hu => by rw [List.mem_singleton.1 hu]; rfl) (by unfold maxLen; omega) (by omega) (Nat.le_trans hs6 (Nat.le_of_lt (by simp))) ?_; intro v8 w8 hown8 hgr8 _)
          have hgr8 : World.grownBy _ w8 u3.ownBlock := hgr8
          have hM := (hM.alloc _).kept hgr8 (fun e => by have := (hown.lt _ e.symm).1; omega)
          have hb8 := hbel.trans (((Below.alloc (Below.refl W6.heap.size W6) (Nat.le_refl _) _).mono hbel.size).trans ((below_grown (hown.alloc _) hgr8 (Nat.le_trans hs6 (Nat.le_of_lt (by simp)))).mono (by omega)))
          have hs8 := Nat.le_trans hs6 (Nat.le_trans (Nat.le_of_lt (by simp)) hgr8.size)
          have e9 := HOUT.out rfl
          go_roundw
          case rel => exact ⟨k + 1, D, by omega, by go_num, by rw [e9, List.length_append, List.map_append]; exact hown8, hM.mono (by omega), by rw [e9]; exact HD, by rw [e9]; exact HW, hs8, hb8⟩
          case measure => (simp [intOf]) <;> omega
        · have hk2n : (x.kd != 2) = false := by rw [bne, hk2]; rfl
          have hri : W6.rangeAt g6 0 (#[.int .i64 x.kd, .int .i64 x.to, .string x.port, .int .i64 x.ch, .int .i64 x.sq] : Array Value).toList := fun j v hv => by
            rw [Nat.zero_add, cell_heap h6 j]
            match j, hv with
            | 0, hv => exact hv
            | 1, hv => exact hv
            | 2, hv => exact hv
            | 3, hv => exact hv
            | 4, hv => exact hv
            | n + 5, hv => simp at hv
          have honeI : (#[.int .i64 x.kd, .int .i64 x.to, .string x.port, .int .i64 x.ch, .int .i64 x.sq] : Array Value).all (·.oneCell') = true := by simp [Value.oneCell']
          go_upto_region 10 with (first | (refine wpList_load_mid rfl 72 (.tmp 34) rfl g6 0 rfl ((#[.int .i64 x.kd, .int .i64 x.to, .string x.port, .int .i64 x.ch, .int .i64 x.sq] : Array Value).toList) _ hri Try.underlying72 rfl (by rfl) ?_; rw [Array.toArray_toList]) | (refine wpList_storeRowTo (Z := #[.int .i64 x.kd, .int .i64 x.to, .string x.port, .int .i64 x.ch, .int .i64 x.sq]) rfl (.tmp 8) (.tmp 35) 72 rfl (by kernel_rfl) rfl (by rfl) (heap_push _ _ _) rfl honeI ?_))
          refine wp_nameE _ (fun W9 hX => ?_)
          have hA : Below W6.heap.size W6 W9 := by rw [hX]; exact below_setRow (Below.alloc (Below.refl _ _) (Nat.le_refl _) _) (Nat.le_refl _) _
          have h8 : W9.heap[W6.heap.size]? = some (.cells #[.int .i64 x.kd, .int .i64 x.to, .string x.port, .int .i64 x.ch, .int .i64 x.sq] 72 (0, 0)) := by rw [hX]; exact setRow_heap _ _ _ _ _ _ (heap_push _ _ _)
          have hown0 := hown
          have hown := own_kept9 hown hA
          have hM := hM.kept (grown_below hA) (by simp)
          have hlo : ∀ q, u3.ownBlock = some q → q < W6.heap.size := fun q h => (hown0.lt q h).2
          have hs9 : w.heap.size + 1 ≤ W9.heap.size := Nat.le_trans hs6 hA.size
          have hbel := hbel.trans (hA.mono hbel.size)
          obtain ⟨g8, hg8⟩ : ∃ g, W6.heap.size = g := ⟨_, rfl⟩
          rw [hg8] at h8 hs6 hlo
          simp only [hg8]
          clear hX hA hg8 h6 c0 c16 hri honeI
          have c4 : W9.cell? ⟨g8, 4, none⟩ = some (.int .i64 x.sq) := cell_heap h8 4
          have f4 : W9.frozen? ⟨g8, 4, none⟩ = false := by simp [World.frozen?, h8]
          go_upto_region 11 with fail
          refine wp_nameE _ (fun W10 hX => ?_)
          rw [setCell_eq_setRow _ _ _ _ _ _ _ h8] at hX
          have hg : W9.grownBy W10 (some g8) := by rw [hX]; exact ⟨rfl, rfl, rfl, by rw [setRow_size]; exact Nat.le_refl _, fun i hi hne => setRow_other _ _ _ _ (fun e => hne (by rw [e]))⟩
          have h8 : W10.heap[g8]? = some (.cells #[.int .i64 x.kd, .int .i64 x.to, .string x.port, .int .i64 x.ch, .int .i64 0] 72 (0, 0)) := by rw [hX]; exact setRow_heap _ _ _ _ _ _ h8
          have hown := hown.kept hg (by
            cases hq : u3.ownBlock with
            | none => exact .inl rfl
            | some q => exact .inr (fun e => by have := hlo q hq; have := Option.some.inj e; omega))
          have hM := hM.kept hg (fun e => by have := Option.some.inj e; omega)
          have hs10 : w.heap.size + 1 ≤ W10.heap.size := Nat.le_trans hs9 hg.size
          have hbel : Below w.heap.size w W10 := by rw [hX]; exact below_setRow hbel (by omega) _
          clear hX hg c4 f4 hlo hown0
          have hrz : ∀ W : World, W.heap[g8]? = some (.cells #[.int .i64 x.kd, .int .i64 x.to, .string x.port, .int .i64 x.ch, .int .i64 0] 72 (0, 0)) → W.rangeAt g8 0 (#[.int .i64 x.kd, .int .i64 x.to, .string x.port, .int .i64 x.ch, .int .i64 0] : Array Value).toList := fun W h => rangeAt_row5 h
          have hkw := ItV.top_wf HJW.out
          have hkey : keyOf Try.prog 72 (.agg #[.int .i64 x.kd, .int .i64 x.to, .string x.port, .int .i64 x.ch, .int .i64 0]) = some x.top.lit := ItV.key hkw
          have hT := hM.tidy item_keyed
          have hsz := HD.out.size
          obtain ⟨m, hm9⟩ : ∃ m, ks.length = m := ⟨_, rfl⟩
          rw [hm9] at hsz hl2
          have HMM := Lib.hid hm9
          have e9 := HINN.out rfl
          have hdn := HD.out.at_ x.top hkw
          clear hm9
          by_cases hin : x.top ∈ ks
          · rw [if_pos hin] at e9
            have hnq : numOf ks x.top = ks.idxOf x.top + 1 := by unfold numOf; rw [if_pos hin]
            have hle : ks.idxOf x.top < ks.length := List.idxOf_lt_length_of_mem hin
            rw [HMM.out] at hle
            obtain ⟨q, hq⟩ : ∃ q, numOf ks x.top = q := ⟨_, rfl⟩
            rw [hq] at hdn e9 hnq
            have hq0 : ((q : Nat) : Int) ≠ 0 := by omega
            have hq1 : (((q : Nat) : Int) == 0) = false := beq_eq_false_iff_ne.2 hq0
            have HDN := Lib.hid hdn
            have HE9 := Lib.hid e9
            clear hin hq hdn e9 hq0 hnq hle
            go_wp2_with (first | (at_len; refine wpList_len_own _ rfl _ 123 rfl 72 3 Try.underlying123 _ w.heap.size k D rfl hM ?_; rw [hsz]) | (refine wpList_load_mid rfl 72 (.tmp 8) rfl g8 0 rfl ((#[.int .i64 x.kd, .int .i64 x.to, .string x.port, .int .i64 x.ch, .int .i64 0] : Array Value).toList) _ (hrz _ h8) Try.underlying72 rfl (by rfl) ?_; rw [Array.toArray_toList]) | (at_lookup; refine wpList_lookup_own_int _ rfl _ _ 123 rfl 72 3 .i64 item_keyed Try.underlying123 Try.underlying3 (bt_zero _) w.heap.size k D rfl hM _ _ rfl hkey ?_; intro cv hat hwc; obtain rfl : cv = ((q : Nat) : Int) := lit_intG (hat.symm.trans HDN.out); clear hat hwc) | (at_builtin; refine wpList_append_own _ rfl (.tmp 47) (.tmp 51) 59 rfl (w.heap.size + 1) 3 i0 (.int .i64 0) 1 8 Try.underlying59 hi hzI hsI hbI rfl (by decide) _ _ _ rfl (hown.alloc _) ⟨W10.heap.size, 0, none⟩ 1 1 [.int .i64 ((q : Nat) : Int)] rfl rfl (cell_one_new _ _ _) (fun u hu => by rw [List.mem_singleton.1 hu]; rfl) (by unfold maxLen; omega) (by omega) (Nat.le_trans hs10 (Nat.le_of_lt (by simp))) ?_; intro v14 w14 hown14 hgr14 _))
            have hgr14 : World.grownBy _ w14 u3.ownBlock := hgr14
            have hM := (hM.alloc _).kept hgr14 (fun e => by have := (hown.lt _ e.symm).1; omega)
            have hb14 := hbel.trans (((Below.alloc (Below.refl W10.heap.size W10) (Nat.le_refl _) _).mono hbel.size).trans ((below_grown (hown.alloc _) hgr14 (Nat.le_trans hs10 (Nat.le_of_lt (by simp)))).mono (by omega)))
            have hs14 := Nat.le_trans hs10 (Nat.le_trans (Nat.le_of_lt (by simp)) hgr14.size)
            have e9 := HE9.out
            go_roundw
            case rel => exact ⟨k + 1, D, by omega, by go_num, by rw [e9, List.length_append, List.map_append]; exact hown14, hM.mono (by omega), by rw [e9]; exact HD, by rw [e9]; exact HW, hs14, hb14⟩
            case measure => (simp [intOf]) <;> omega
          · rw [if_neg hin] at e9
            have hnq : numOf ks x.top = 0 := by unfold numOf; rw [if_neg hin]
            rw [hnq] at hdn
            have hMI := HD.out.put hT hkw hin
            rw [HMM.out] at hMI e9
            have HDN := Lib.hid hdn
            have HE9 := Lib.hid e9
            have HMI := Lib.hid hMI
            have HNI := Lib.hid hin
            have hmw : (Lit.int .i64 ((m : Int) + 1)).wf = true := wf_i64 (by omega) (by omega)
            clear hin hdn e9 hnq hMI
            go_upto_region 14 with (first | (at_len; refine wpList_len_own _ rfl _ 123 rfl 72 3 Try.underlying123 _ w.heap.size k D rfl hM ?_; rw [hsz]) | (refine wpList_load_mid rfl 72 (.tmp 8) rfl g8 0 rfl ((#[.int .i64 x.kd, .int .i64 x.to, .string x.port, .int .i64 x.ch, .int .i64 0] : Array Value).toList) _ (hrz _ h8) Try.underlying72 rfl (by rfl) ?_; rw [Array.toArray_toList]) | (at_lookup; refine wpList_lookup_own_int _ rfl _ _ 123 rfl 72 3 .i64 item_keyed Try.underlying123 Try.underlying3 (bt_zero _) w.heap.size k D rfl hM _ _ rfl hkey ?_; intro cv hat hwc; obtain rfl : cv = ((0 : Nat) : Int) := lit_intG (hat.symm.trans HDN.out); clear hat hwc) | (at_mapUpdate; refine wpList_mapUpdate_own _ rfl _ _ _ 123 rfl 72 3 item_keyed Try.underlying123 _ w.heap.size k D rfl hM (by unfold maxLen; omega) _ _ _ rfl rfl hkey _ [] (plainElem_int Try.underlying3 hmw) ?_; intro w13 hM13 hgr13))
            have hMI := HMI.out
            have hown := hown.kept hgr13 (by
              cases hq : u3.ownBlock with
              | none => exact .inl rfl
              | some q => exact .inr (fun e => by have := (hown.lt q hq).1; have := Option.some.inj e; omega))
            have h8 := grown_at hgr13 h8 (fun e => by have := Option.some.inj e; omega)
            have hdn := hMI.at_ x.top hkw
            have hnq : numOf (ks ++ [x.top]) x.top = m + 1 := by
              have := hMI.size
              have h9 := numOf_new ks (k := x.top) HNI.out
              rw [h9, HMM.out]
            rw [hnq] at hdn
            have HDN2 := Lib.hid hdn
            have hs13 := Nat.le_trans hs10 hgr13.size
            have hbel := hbel.grown hgr13 hbel.size (fun j hj => by cases hj; omega)
            clear hdn hnq hMI hgr13
            have hM13 : w13.ownsMap Try.prog 72 (plainElem Try.prog 3) w.heap.size (k + 1) (D.put x.top.lit (.lit (.int .i64 ((m + 1 : Nat) : Int)))) := hM13
            go_wp2_with (first | (refine wpList_load_mid rfl 72 (.tmp 8) rfl g8 0 rfl ((#[.int .i64 x.kd, .int .i64 x.to, .string x.port, .int .i64 x.ch, .int .i64 0] : Array Value).toList) _ (hrz _ h8) Try.underlying72 rfl (by rfl) ?_; rw [Array.toArray_toList]) | (at_lookup; refine wpList_lookup_own_int _ rfl _ _ 123 rfl 72 3 .i64 item_keyed Try.underlying123 Try.underlying3 (bt_zero _) w.heap.size (k + 1) (D.put x.top.lit (.lit (.int .i64 ((m + 1 : Nat) : Int)))) rfl hM13 _ _ rfl hkey ?_; intro cv hat hwc; obtain rfl : cv = ((m + 1 : Nat) : Int) := lit_intG (hat.symm.trans HDN2.out); clear hat hwc) | (at_builtin; refine wpList_append_own _ rfl (.tmp 47) (.tmp 51) 59 rfl (w.heap.size + 1) 3 i0 (.int .i64 0) 1 8 Try.underlying59 hi hzI hsI hbI rfl (by decide) _ _ _ rfl (hown.alloc _) ⟨w13.heap.size, 0, none⟩ 1 1 [.int .i64 ((m + 1 : Nat) : Int)] rfl rfl (cell_one_new _ _ _) (fun u hu => by rw [List.mem_singleton.1 hu]; rfl) (by unfold maxLen; omega) (by omega) (Nat.le_trans hs13 (Nat.le_of_lt (by simp))) ?_; intro v14 w14 hown14 hgr14 _))
            have hgr14 : World.grownBy _ w14 u3.ownBlock := hgr14
            have hM := (hM13.alloc _).kept hgr14 (fun e => by have := (hown.lt _ e.symm).1; omega)
            have hb14 := hbel.trans (((Below.alloc (Below.refl w13.heap.size w13) (Nat.le_refl _) _).mono hbel.size).trans ((below_grown (hown.alloc _) hgr14 (Nat.le_trans hs13 (Nat.le_of_lt (by simp)))).mono (by omega)))
            have hs14 := Nat.le_trans hs13 (Nat.le_trans (Nat.le_of_lt (by simp)) hgr14.size)
            have e9 := HE9.out
            go_roundw
            case rel => exact ⟨k + 1, D.put x.top.lit (.lit (.int .i64 ((m + 1 : Nat) : Int))), by omega, by go_num, by rw [e9, List.length_append, List.map_append]; exact hown14, hM, by rw [e9]; exact HMI, by rw [e9]; exact Lib.hid (fun z hz => (List.mem_append.1 hz).elim (fun h => HW.out z h) (fun h => by rw [List.mem_singleton.1 h]; exact hkw)), hs14, hb14⟩
            case measure => (simp [intOf]) <;> omega
      · have hk1n : (x.kd != 1) = false := by rw [bne, hk1]; rfl
        have hri : W6.rangeAt g6 0 (#[.int .i64 x.kd, .int .i64 x.to, .string x.port, .int .i64 x.ch, .int .i64 x.sq] : Array Value).toList := fun j v hv => by
          rw [Nat.zero_add, cell_heap h6 j]
          match j, hv with
          | 0, hv => exact hv
          | 1, hv => exact hv
          | 2, hv => exact hv
          | 3, hv => exact hv
          | 4, hv => exact hv
          | n + 5, hv => simp at hv
        have honeI : (#[.int .i64 x.kd, .int .i64 x.to, .string x.port, .int .i64 x.ch, .int .i64 x.sq] : Array Value).all (·.oneCell') = true := by simp [Value.oneCell']
        go_upto_region 10 with (first | (refine wpList_load_mid rfl 72 (.tmp 34) rfl g6 0 rfl ((#[.int .i64 x.kd, .int .i64 x.to, .string x.port, .int .i64 x.ch, .int .i64 x.sq] : Array Value).toList) _ hri Try.underlying72 rfl (by rfl) ?_; rw [Array.toArray_toList]) | (refine wpList_storeRowTo (Z := #[.int .i64 x.kd, .int .i64 x.to, .string x.port, .int .i64 x.ch, .int .i64 x.sq]) rfl (.tmp 8) (.tmp 35) 72 rfl (by kernel_rfl) rfl (by rfl) (heap_push _ _ _) rfl honeI ?_))
        refine wp_nameE _ (fun W9 hX => ?_)
        have hA : Below W6.heap.size W6 W9 := by rw [hX]; exact below_setRow (Below.alloc (Below.refl _ _) (Nat.le_refl _) _) (Nat.le_refl _) _
        have h8 : W9.heap[W6.heap.size]? = some (.cells #[.int .i64 x.kd, .int .i64 x.to, .string x.port, .int .i64 x.ch, .int .i64 x.sq] 72 (0, 0)) := by rw [hX]; exact setRow_heap _ _ _ _ _ _ (heap_push _ _ _)
        have hown0 := hown
        have hown := own_kept9 hown hA
        have hM := hM.kept (grown_below hA) (by simp)
        have hlo : ∀ q, u3.ownBlock = some q → q < W6.heap.size := fun q h => (hown0.lt q h).2
        have hs9 : w.heap.size + 1 ≤ W9.heap.size := Nat.le_trans hs6 hA.size
        have hbel := hbel.trans (hA.mono hbel.size)
        obtain ⟨g8, hg8⟩ : ∃ g, W6.heap.size = g := ⟨_, rfl⟩
        rw [hg8] at h8 hs6 hlo
        simp only [hg8]
        clear hX hA hg8 h6 c0 c16 hri honeI
        have c4 : W9.cell? ⟨g8, 4, none⟩ = some (.int .i64 x.sq) := cell_heap h8 4
        have f4 : W9.frozen? ⟨g8, 4, none⟩ = false := by simp [World.frozen?, h8]
        go_upto_region 11 with fail
        refine wp_nameE _ (fun W10 hX => ?_)
        rw [setCell_eq_setRow _ _ _ _ _ _ _ h8] at hX
        have hg : W9.grownBy W10 (some g8) := by rw [hX]; exact ⟨rfl, rfl, rfl, by rw [setRow_size]; exact Nat.le_refl _, fun i hi hne => setRow_other _ _ _ _ (fun e => hne (by rw [e]))⟩
        have h8 : W10.heap[g8]? = some (.cells #[.int .i64 x.kd, .int .i64 x.to, .string x.port, .int .i64 x.ch, .int .i64 0] 72 (0, 0)) := by rw [hX]; exact setRow_heap _ _ _ _ _ _ h8
        have hown := hown.kept hg (by
          cases hq : u3.ownBlock with
          | none => exact .inl rfl
          | some q => exact .inr (fun e => by have := hlo q hq; have := Option.some.inj e; omega))
        have hM := hM.kept hg (fun e => by have := Option.some.inj e; omega)
        have hs10 : w.heap.size + 1 ≤ W10.heap.size := Nat.le_trans hs9 hg.size
        have hbel : Below w.heap.size w W10 := by rw [hX]; exact below_setRow hbel (by omega) _
        clear hX hg c4 f4 hlo hown0
        have hrz : ∀ W : World, W.heap[g8]? = some (.cells #[.int .i64 x.kd, .int .i64 x.to, .string x.port, .int .i64 x.ch, .int .i64 0] 72 (0, 0)) → W.rangeAt g8 0 (#[.int .i64 x.kd, .int .i64 x.to, .string x.port, .int .i64 x.ch, .int .i64 0] : Array Value).toList := fun W h => rangeAt_row5 h
        have hkw := ItV.top_wf HJW.out
        have hkey : keyOf Try.prog 72 (.agg #[.int .i64 x.kd, .int .i64 x.to, .string x.port, .int .i64 x.ch, .int .i64 0]) = some x.top.lit := ItV.key hkw
        have hT := hM.tidy item_keyed
        have hsz := HD.out.size
        obtain ⟨m, hm9⟩ : ∃ m, ks.length = m := ⟨_, rfl⟩
        rw [hm9] at hsz hl2
        have HMM := Lib.hid hm9
        have e9 := HINN.out rfl
        have hdn := HD.out.at_ x.top hkw
        clear hm9
        by_cases hin : x.top ∈ ks
        · rw [if_pos hin] at e9
          have hnq : numOf ks x.top = ks.idxOf x.top + 1 := by unfold numOf; rw [if_pos hin]
          have hle : ks.idxOf x.top < ks.length := List.idxOf_lt_length_of_mem hin
          rw [HMM.out] at hle
          obtain ⟨q, hq⟩ : ∃ q, numOf ks x.top = q := ⟨_, rfl⟩
          rw [hq] at hdn e9 hnq
          have hq0 : ((q : Nat) : Int) ≠ 0 := by omega
          have hq1 : (((q : Nat) : Int) == 0) = false := beq_eq_false_iff_ne.2 hq0
          have HDN := Lib.hid hdn
          have HE9 := Lib.hid e9
          clear hin hq hdn e9 hq0 hnq hle
          go_wp2_with (first | (at_len; refine wpList_len_own _ rfl _ 123 rfl 72 3 Try.underlying123 _ w.heap.size k D rfl hM ?_; rw [hsz]) | (refine wpList_load_mid rfl 72 (.tmp 8) rfl g8 0 rfl ((#[.int .i64 x.kd, .int .i64 x.to, .string x.port, .int .i64 x.ch, .int .i64 0] : Array Value).toList) _ (hrz _ h8) Try.underlying72 rfl (by rfl) ?_; rw [Array.toArray_toList]) | (at_lookup; refine wpList_lookup_own_int _ rfl _ _ 123 rfl 72 3 .i64 item_keyed Try.underlying123 Try.underlying3 (bt_zero _) w.heap.size k D rfl hM _ _ rfl hkey ?_; intro cv hat hwc; obtain rfl : cv = ((q : Nat) : Int) := lit_intG (hat.symm.trans HDN.out); clear hat hwc) | (at_builtin; refine wpList_append_own _ rfl (.tmp 47) (.tmp 51) 59 rfl (w.heap.size + 1) 3 i0 (.int .i64 0) 1 8 Try.underlying59 hi hzI hsI hbI rfl (by decide) _ _ _ rfl (hown.alloc _) ⟨W10.heap.size, 0, none⟩ 1 1 [.int .i64 ((q : Nat) : Int)] rfl rfl (cell_one_new _ _ _) (fun u hu => by rw [List.mem_singleton.1 hu]; rfl) (by unfold maxLen; omega) (by omega) (Nat.le_trans hs10 (Nat.le_of_lt (by simp))) ?_; intro v14 w14 hown14 hgr14 _))
          have hgr14 : World.grownBy _ w14 u3.ownBlock := hgr14
          have hM := (hM.alloc _).kept hgr14 (fun e => by have := (hown.lt _ e.symm).1; omega)
          have hb14 := hbel.trans (((Below.alloc (Below.refl W10.heap.size W10) (Nat.le_refl _) _).mono hbel.size).trans ((below_grown (hown.alloc _) hgr14 (Nat.le_trans hs10 (Nat.le_of_lt (by simp)))).mono (by omega)))
          have hs14 := Nat.le_trans hs10 (Nat.le_trans (Nat.le_of_lt (by simp)) hgr14.size)
          have e9 := HE9.out
          go_roundw
          case rel => exact ⟨k + 1, D, by omega, by go_num, by rw [e9, List.length_append, List.map_append]; exact hown14, hM.mono (by omega), by rw [e9]; exact HD, by rw [e9]; exact HW, hs14, hb14⟩
          case measure => (simp [intOf]) <;> omega
        · rw [if_neg hin] at e9
          have hnq : numOf ks x.top = 0 := by unfold numOf; rw [if_neg hin]
          rw [hnq] at hdn
          have hMI := HD.out.put hT hkw hin
          rw [HMM.out] at hMI e9
          have HDN := Lib.hid hdn
          have HE9 := Lib.hid e9
          have HMI := Lib.hid hMI
          have HNI := Lib.hid hin
          have hmw : (Lit.int .i64 ((m : Int) + 1)).wf = true := wf_i64 (by omega) (by omega)
          clear hin hdn e9 hnq hMI
          go_upto_region 14 with (first | (at_len; refine wpList_len_own _ rfl _ 123 rfl 72 3 Try.underlying123 _ w.heap.size k D rfl hM ?_; rw [hsz]) | (refine wpList_load_mid rfl 72 (.tmp 8) rfl g8 0 rfl ((#[.int .i64 x.kd, .int .i64 x.to, .string x.port, .int .i64 x.ch, .int .i64 0] : Array Value).toList) _ (hrz _ h8) Try.underlying72 rfl (by rfl) ?_; rw [Array.toArray_toList]) | (at_lookup; refine wpList_lookup_own_int _ rfl _ _ 123 rfl 72 3 .i64 item_keyed Try.underlying123 Try.underlying3 (bt_zero _) w.heap.size k D rfl hM _ _ rfl hkey ?_; intro cv hat hwc; obtain rfl : cv = ((0 : Nat) : Int) := lit_intG (hat.symm.trans HDN.out); clear hat hwc) | (at_mapUpdate; refine wpList_mapUpdate_own _ rfl _ _ _ 123 rfl 72 3 item_keyed Try.underlying123 _ w.heap.size k D rfl hM (by unfold maxLen; omega) _ _ _ rfl rfl hkey _ [] (plainElem_int Try.underlying3 hmw) ?_; intro w13 hM13 hgr13))
          have hMI := HMI.out
          have hown := hown.kept hgr13 (by
            cases hq : u3.ownBlock with
            | none => exact .inl rfl
            | some q => exact .inr (fun e => by have := (hown.lt q hq).1; have := Option.some.inj e; omega))
          have h8 := grown_at hgr13 h8 (fun e => by have := Option.some.inj e; omega)
          have hdn := hMI.at_ x.top hkw
          have hnq : numOf (ks ++ [x.top]) x.top = m + 1 := by
            have := hMI.size
            have h9 := numOf_new ks (k := x.top) HNI.out
            rw [h9, HMM.out]
          rw [hnq] at hdn
          have HDN2 := Lib.hid hdn
          have hs13 := Nat.le_trans hs10 hgr13.size
          have hbel := hbel.grown hgr13 hbel.size (fun j hj => by cases hj; omega)
          clear hdn hnq hMI hgr13
          have hM13 : w13.ownsMap Try.prog 72 (plainElem Try.prog 3) w.heap.size (k + 1) (D.put x.top.lit (.lit (.int .i64 ((m + 1 : Nat) : Int)))) := hM13
          go_wp2_with (first | (refine wpList_load_mid rfl 72 (.tmp 8) rfl g8 0 rfl ((#[.int .i64 x.kd, .int .i64 x.to, .string x.port, .int .i64 x.ch, .int .i64 0] : Array Value).toList) _ (hrz _ h8) Try.underlying72 rfl (by rfl) ?_; rw [Array.toArray_toList]) | (at_lookup; refine wpList_lookup_own_int _ rfl _ _ 123 rfl 72 3 .i64 item_keyed Try.underlying123 Try.underlying3 (bt_zero _) w.heap.size (k + 1) (D.put x.top.lit (.lit (.int .i64 ((m + 1 : Nat) : Int)))) rfl hM13 _ _ rfl hkey ?_; intro cv hat hwc; obtain rfl : cv = ((m + 1 : Nat) : Int) := lit_intG (hat.symm.trans HDN2.out); clear hat hwc) | (at_builtin; refine wpList_append_own _ rfl (.tmp 47) (.tmp 51) 59 rfl (w.heap.size + 1) 3 i0 (.int .i64 0) 1 8 Try.underlying59 hi hzI hsI hbI rfl (by decide) _ _ _ rfl (hown.alloc _) ⟨w13.heap.size, 0, none⟩ 1 1 [.int .i64 ((m + 1 : Nat) : Int)] rfl rfl (cell_one_new _ _ _) (fun u hu => by rw [List.mem_singleton.1 hu]; rfl) (by unfold maxLen; omega) (by omega) (Nat.le_trans hs13 (Nat.le_of_lt (by simp))) ?_; intro v14 w14 hown14 hgr14 _))
          have hgr14 : World.grownBy _ w14 u3.ownBlock := hgr14
          have hM := (hM13.alloc _).kept hgr14 (fun e => by have := (hown.lt _ e.symm).1; omega)
          have hb14 := hbel.trans (((Below.alloc (Below.refl w13.heap.size w13) (Nat.le_refl _) _).mono hbel.size).trans ((below_grown (hown.alloc _) hgr14 (Nat.le_trans hs13 (Nat.le_of_lt (by simp)))).mono (by omega)))
          have hs14 := Nat.le_trans hs13 (Nat.le_trans (Nat.le_of_lt (by simp)) hgr14.size)
          have e9 := HE9.out
          go_roundw
          case rel => exact ⟨k + 1, D.put x.top.lit (.lit (.int .i64 ((m + 1 : Nat) : Int))), by omega, by go_num, by rw [e9, List.length_append, List.map_append]; exact hown14, hM, by rw [e9]; exact HMI, by rw [e9]; exact Lib.hid (fun z hz => (List.mem_append.1 hz).elim (fun h => HW.out z h) (fun h => by rw [List.mem_singleton.1 h]; exact hkw)), hs14, hb14⟩
          case measure => (simp [intOf]) <;> omega
end Go.Proofs.Ythipnkbfdkmhaaa
