/- ligkeep.Lend, Kept. -/
import Derived.Test.YtdlngadcgcgenaaSp11
import Derived.BigRegion
import Derived.RegionTactic
import Derived.BigQuiet
import Derived.Deep.QuietTactic
import Derived.Deep.MidRow
import Derived.OwnWalk
import Derived.LoopTactic
import Derived.BigFrame
import Derived.Laws.OwnMore
import Derived.WalkKit
import Derived.ProofKit
import Derived.Handy
import Derived.Below
import Derived.Lib.Hide
import Derived.IntWalk
import Derived.Outline
import Derived.WalkLawsBesides
import Derived.WalkSpells
namespace Go.Proofs.Ytdlngadcgcgenaa
open Go.RowKit
attribute [local go_sem] strV
set_option linter.unusedVariables false
theorem wpList_append_fitsA {P : Program} (w : World) {ops : Array Oper} {rest : List Oper} {o : Oper} {a : Act} {Q : Exit → Act → World → Prop}
    (hg : o.guard = none) (s x : Operand) (t : TypeId) (hop : o.op = Op.call { callee := Callee.builtin Builtin.append, args := #[s, x], argTypes := #[t, t] })
    (base : Nat) (e : TypeId) (i : TypeInfo) (size : Nat) (h1 : P.underlying t = some (.slice e)) (h2 : P.info? e = some i) (h4 : i.size = size)
    (g k cap : Nat) (xs : List Value) (hs : a.eval s = .slice (some ⟨g, 0, none⟩) k cap) (hown : w.ownsRow base e size (.slice (some ⟨g, 0, none⟩) k cap) k xs) (ao : Option Addr) (m c : Nat) (news : List Value) (hx : a.eval x = .slice ao m c) (hnone : ao = none → m = 0 ∧ c = 0) (hn : news.length = m * size)
    (hc : ∀ ad, ao = some ad → ∀ j u, news[j]? = some u → w.cell? (ad.add j) = some u) (h1c : ∀ u ∈ news, u.oneCell' = true) (b1 : k + m ≤ cap)
    (hK : ∀ w', w'.ownsRow base e size (.slice (some ⟨g, 0, none⟩) (k + m) cap) (k + m) (xs ++ news) → w.grownBy w' (some g) → wpList P ops Q rest (a.put o.dst (.slice (some ⟨g, 0, none⟩) (k + m) cap)) w') :
    wpList P ops Q (o :: rest) a w := by
  cases ao with
  | some ad => exact wpList_append_fits w hg s x t hop base e i size h1 h2 h4 g k cap xs hs hown ad m c news hx hn (hc ad rfl) h1c b1 hK
  | none =>
    obtain ⟨rfl, rfl⟩ := hnone rfl
    have hn9 : news = [] := List.eq_nil_of_length_eq_zero (by simpa using hn)
    subst hn9
    refine wpList_plain hg fun K hK' => ?_
    have hrun := run_append_owned_none (P := P) w base t o.type e i size h1 h2 _ k xs hown
    unfold Oper.wp
    simp [execOp, hop, resolve, invoke, builtin, hs, hx, hrun, Result.andThen]
    exact hK' _ _ (by simpa using hK w (by simpa using hown) (World.grownBy.refl _ _))
theorem row_prefix {w : World} {a : Option Addr} {xs ys : List Value} (h : RowAt w a (xs ++ ys)) : RowAt w a xs := by
  rcases h with h | ⟨b, off, ha, hb, hc⟩
  · exact .inl (List.append_eq_nil_iff.1 h).1
  · refine .inr ⟨b, off, ha, hb, fun j hj => ?_⟩
    rw [hc j (by rw [List.length_append]; omega), List.getElem?_append_left hj]
theorem lend_row {w : World} {g n : Nat} {cur : Array Value} {t : TypeId} {l : List Int} (hg : w.heap[g]? = some (.cells cur t (0, 0))) (hs : cur.size = n + 2) (hl : l.length = n) (ht : cur.toList.take n = l.map (Value.int .i64)) (v : Int) :
    RowAt ((w.setCell ⟨g, n, none⟩ (.int .i64 v)).setCell ⟨g, n + 1, none⟩ (.int .i64 v)) (some ⟨g, 0, none⟩) ((l ++ [v, v]).map (Value.int .i64)) := by
  have q1 := heap_setCell_same w g n _ _ (.int .i64 v) hg
  have q2 := heap_setCell_same (w.setCell ⟨g, n, none⟩ (.int .i64 v)) g (n + 1) _ _ (.int .i64 v) q1
  refine .inr ⟨g, 0, rfl, (Array.getElem?_eq_some_iff.1 q2).1, fun j hj => ?_⟩
  rw [Nat.zero_add, cell_heap q2 j]
  rw [List.length_map, List.length_append, hl] at hj
  have hj : j < n + 2 := hj
  rw [List.map_append, ← ht]
  have hlt : (cur.toList.take n).length = n := by rw [List.length_take, Array.length_toList, hs]; omega
  rcases Nat.lt_or_ge j n with h | h
  · rw [Array.getElem?_setIfInBounds_ne (by omega), Array.getElem?_setIfInBounds_ne (by omega), List.getElem?_append_left (by rw [hlt]; exact h), List.getElem?_take_of_lt h, Array.getElem?_toList]
  · rw [List.getElem?_append_right (by rw [hlt]; exact h), hlt]
    rcases Nat.eq_or_lt_of_le h with rfl | h2
    · rw [Array.getElem?_setIfInBounds_ne (by omega), Array.getElem?_setIfInBounds_self_of_lt (by omega), Nat.sub_self]; rfl
    · obtain rfl : j = n + 1 := by omega
      rw [Array.getElem?_setIfInBounds_self_of_lt (by rw [Array.size_setIfInBounds]; omega), show n + 1 - n = 1 by omega]; rfl
set_option maxRecDepth 100000 in
set_option maxHeartbeats 6400000 in
theorem lend_any (a : Option Addr) (n cap : Nat) (l : List Int) (w : World) (hr : RowAt w a (l.map (Value.int .i64))) (hn : l.length = n) (hm : n ≤ 100000) (ha : a = none → n = 0 ∧ cap = 0) :
    Calls Try.prog 15 #[.slice a n cap] w fun e w' => ∃ g, e = .returned (.slice (some ⟨g, 0, none⟩) n (n + 2)) ∧ w.heap.size ≤ g ∧ RowAt w' (some ⟨g, 0, none⟩) ((l ++ [-777, -777]).map (Value.int .i64)) ∧ Below w.heap.size w w' := by
  obtain ⟨iI, hiI, hzI, hsI, hbI⟩ := info_parts Try.infoI
  have HN := Lib.hid hn
  have HL := Lib.hid (show (l.map (Value.int .i64)).length = n * 1 by rw [List.length_map, hn, Nat.mul_one])
  clear hn
  go_enter Try.func15, Try.ntmps15
  go_upto_region 2 with (at_make; refine wpList_make_own _ rfl _ _ 29 rfl w.heap.size 3 iI (.int .i64 0) 1 Try.underlying29 hiI hzI hsI .i64 .i64 _ (n + 2) rfl rfl (by omega) (by rw [hbI]; omega) (by unfold maxLen; omega) (Nat.le_refl _) ?_; intro w2 hown2 hgr2)
  have hb2 := grown_lowM hgr2 (fun k h => by cases h) (Nat.le_refl _)
  obtain ⟨g, hg⟩ : ∃ g, w.heap.size = g := ⟨_, rfl⟩
  have hge : w.heap.size ≤ g := by omega
  rw [hg] at hown2 hb2
  have hs2 : g ≤ w2.heap.size := by rw [← hg]; exact hb2.size
  simp only [hg]
  have hrow2 := hr.below (show Below w.heap.size w w2 by rw [hg]; exact hb2)
  go_upto_region 3 with (at_builtin; refine wpList_append_fitsA _ rfl _ _ 29 rfl g 3 iI 1 Try.underlying29 hiI hsI g 0 (n + 2) [] rfl hown2 a n cap (l.map (Value.int .i64)) rfl ha HL.out (row_newsM hrow2) (fun u hu => by obtain ⟨z, _, rfl⟩ := List.mem_map.1 hu; rfl) (by omega) ?_; intro w3 hown3 hgr3)
  have hb3 := hb2.trans (below_grown hown2 hgr3 hs2)
  simp only [Nat.zero_add, List.nil_append] at hown3
  try simp only [Nat.zero_add]
  obtain ⟨cur, hcur, hcs, hct⟩ : ∃ cur, w3.heap[g]? = some (.cells cur 3 (0, 0)) ∧ cur.size = n + 2 ∧ cur.toList.take n = l.map (Value.int .i64) := by
    rcases hown3.2 with ⟨h, _⟩ | ⟨g9, cap9, cur, h, _, h2, _, _, h5, h6⟩
    · cases h
    · simp only [Value.slice.injEq, Option.some.injEq, Addr.mk.injEq, and_true, true_and] at h
      obtain ⟨rfl, rfl⟩ := h
      exact ⟨cur, h2, by omega, by rw [← h6, Nat.mul_one]⟩
  have HR := Lib.hid (lend_row hcur hcs HN.out hct (-777))
  have c0 : w3.cell? ⟨g, n, none⟩ = some cur[n] := by rw [cell_heap hcur, Array.getElem?_eq_getElem (by omega)]
  have c1 : w3.cell? ⟨g, n + 1, none⟩ = some cur[n + 1] := by rw [cell_heap hcur, Array.getElem?_eq_getElem (by omega)]
  obtain ⟨u0, hu0⟩ : ∃ u, cur[n] = u := ⟨_, rfl⟩
  obtain ⟨u1, hu1⟩ : ∃ u, cur[n + 1] = u := ⟨_, rfl⟩
  rw [hu0] at c0
  rw [hu1] at c1
  have z0 : w3.frozen? ⟨g, n, none⟩ = false := by unfold World.frozen?; rw [hcur]; rfl
  have z1 : w3.frozen? ⟨g, n + 1, none⟩ = false := by unfold World.frozen?; rw [hcur]; rfl
  have hm2 : ((n + 2 : Nat) : Int) = (n : Int) + 2 := by omega
  have n0 : (0 : Int) ≤ (n : Int) := by omega
  have n2 : ((n : Int) + 2).toNat = n + 2 := by omega
  have n3 : (0 : Int) ≤ (n : Int) + 2 := by omega
  have n4 : (n : Int) ≤ (n : Int) + 2 := by omega
  have n5 : ((n : Nat) : Int).toNat = n := by omega
  have n6 : n + 2 - n = 2 := by omega
  have n7 : ¬ (n + 2 = n) := by omega
  clear hcur hcs hct hu0 hu1 hown2 hgr2 hrow2 hown3 hgr3 hr
  go_wp2
  go_ret
  exact ⟨g, rfl, hge, HR.out, by rw [hg]; exact (hb3.setCell (p := ⟨g, n, none⟩) (Nat.le_refl _) _).setCell (p := ⟨g, n + 1, none⟩) (Nat.le_refl _) _⟩
set_option maxRecDepth 100000 in
set_option maxHeartbeats 6400000 in
theorem kept_any (a : Option Addr) (n cap g : Nat) (l : List Int) (w : World) (hg : RowAt w (some ⟨g, 0, none⟩) ((l ++ [-777, -777]).map (Value.int .i64))) (hr : RowAt w a (l.map (Value.int .i64))) (hn : l.length = n) (hm : n ≤ 100000) :
    Calls Try.prog 16 #[.slice (some ⟨g, 0, none⟩) n (n + 2), .slice a n cap] w fun e w' => e = .returned (.bool true) ∧ Below w.heap.size w w' := by
  have CI := fun (W : World) (hb : Below w.heap.size w W) => ints_any (cap := n + 2) (cap' := cap) (row_prefix (ys := [Value.int .i64 (-777), .int .i64 (-777)]) (by have := hg.below hb; rw [List.map_append] at this; exact this)) (hr.below hb) hn hn (by unfold maxLen; omega) (by unfold maxLen; omega)
  have e1 : (l == l) = true := beq_self_eq_true l
  simp only [e1] at CI
  have hc : ∀ (W : World), Below w.heap.size w W → ∀ (j : Nat), j < 2 → W.cell? ⟨g, n + j, none⟩ = some (.int .i64 (-777)) := by
    intro W hb j hj
    have h := hg.below hb
    rcases h with h | ⟨b9, o9, h1, _, h2⟩
    · rw [List.map_eq_nil_iff] at h; simp at h
    · simp only [Option.some.injEq, Addr.mk.injEq, and_true] at h1
      obtain ⟨rfl, rfl⟩ := h1
      exact (show W.cell? ⟨g, n + j, none⟩ = some (.int .i64 (-777)) by
        have := h2 (n + j) (by rw [List.length_map, List.length_append, hn]; show n + j < n + 2; omega)
        rw [Nat.zero_add] at this
        rw [this, List.map_append, List.getElem?_append_right (by rw [List.length_map, hn]; omega), List.length_map, hn, show n + j - n = j by omega]
        match j, hj with
        | 0, _ => rfl
        | 1, _ => rfl)
  have hm2 : ((n + 2 : Nat) : Int) = (n : Int) + 2 := by omega
  have n0 : (0 : Int) ≤ (n : Int) := by omega
  have n2 : ((n : Int) + 2).toNat = n + 2 := by omega
  have n3 : (0 : Int) ≤ (n : Int) + 2 := by omega
  have n4 : (n : Int) ≤ (n : Int) + 2 := by omega
  have n5 : ((n : Nat) : Int).toNat = n := by omega
  have n6 : n + 2 - n = 2 := by omega
  have n7 : ¬ (n + 2 = n) := by omega
  have e7 : ((-777 : Int) == -777) = true := by rfl
  clear hg hr e1
  go_enter Try.func16, Try.ntmps16
  go_wp2_with (go_at_call 26; refine (CI _ (Below.refl _ _)).mono ?_; rintro e w2 ⟨rfl, hb2⟩; have c0 := hc _ hb2 0 (by omega); have c1 := hc _ hb2 1 (by omega); rw [Nat.add_zero] at c0)
  go_ret
  exact ⟨by first | rfl | simp, hb2⟩
end Go.Proofs.Ytdlngadcgcgenaa
