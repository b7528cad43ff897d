/- The document's digits: written. -/
import Derived.Test.YtfblbholkhdldaaDoorHexE
import Derived.Test.YtfblbholkhdldaaDoorPhiC
import Derived.Test.YtfblbholkhdldaaDoorShaCuts
import Derived.Test.YtfblbholkhdldaaDoorRefSum
import Derived.WalkKit
import Derived.ProofKit
import Derived.Handy
import Derived.Below
import Derived.Lib.Hide
import Derived.IntWalk
import Derived.Outline
import Derived.WalkLawsBesides
import Derived.WalkSpells
namespace Go.Proofs.YtfblbholkhdldaaDoor
open Go.RowKit
attribute [local go_sem] strV
set_option linter.unusedVariables false
/-- 'append(s, x..)' of a row that is known, s nil or the call's own. -/
theorem wpList_append_row {P : Program} {w : World} {ops : Array Oper} {rest : List Oper} {o : Oper} {a : Act} {Q : Exit → Act → World → Prop} (hgd : o.guard = none) (s x : Operand) (t : TypeId)
    (ho : o.op = .call { callee := .builtin .append, args := #[s, x], argTypes := #[t, t] })
    {base : Nat} (e : TypeId) (i : TypeInfo) (z : Value) (size bytes : Nat) (ht : P.underlying t = some (.slice e)) (hi : P.info? e = some i) (hz : i.zero = some z)
    (hsize : i.size = size) (hby : i.bytes = bytes) (hzs : z.cells.size = size) (hsp : 0 < size)
    {v : Value} {n : Nat} {xs : List Value} (hown : w.ownsRow base e size v n xs) (hs : a.eval s = v)
    {ad : Option Addr} {m c : Nat} {news : List Value} (hx : a.eval x = .slice ad m c) (hr : RowAt w ad news) (hl : news.length = m * size) (h1 : ∀ u ∈ news, u.oneCell' = true) (hm : 0 < m)
    (h63 : n + m ≤ maxLen) (hbytes : (n + m) * bytes ≤ 140737488355328) (hbase : base ≤ w.heap.size)
    (h : ∀ v' w', w'.ownsRow base e size v' (n + m) (xs ++ news) → Below base w w' → wpList P ops Q rest (a.put o.dst v') w') :
    wpList P ops Q (o :: rest) a w := by
  rcases hr with hr | ⟨b, off, rfl, hb, hc⟩
  · exfalso; rw [hr] at hl; simp at hl; rcases Nat.mul_eq_zero.1 hl.symm with h | h <;> omega
  refine wpList_append_own _ hgd s x t ho base e i z size bytes ht hi hz hsize hby hzs hsp v n xs hs hown ⟨b, off, none⟩ m c news hx hl ?_ h1 h63 hbytes hbase ?_
  · intro j y hj
    have hjl := (List.getElem?_eq_some_iff.1 hj).1
    have hadd : (⟨b, off, none⟩ : Addr).add j = ⟨b, off + j, none⟩ := by unfold Addr.add; by_cases h : j = 0 <;> simp [h]
    rw [hadd, hc j hjl, hj]
  · intro v' w' h2 h3 _
    exact h v' w' h2 ((Below.refl base w).grown h3 hbase (fun k hk => (hown.lt k hk).1))
theorem hexL_take {L : List UInt8} {k : Nat} {x : UInt8} (h : L[k]? = some x) : hexL (L.take (k + 1)) = hexL (L.take k) ++ [hexd (x.toNat / 16), hexd (x.toNat % 16)] := by
  rw [List.take_add_one, h, hexL_append]; rfl
set_option maxRecDepth 100000 in
set_option maxHeartbeats 6400000 in
theorem refHex_any (s : ByteArray) (w : World) (hsm : s.size ≤ 1000000) :
    Calls Tryd.prog 23 #[.string s] w fun e w' => e = .returned (.string ⟨(hexL s.data.toList).toArray⟩) ∧ Below w.heap.size w w' := by
  obtain ⟨i0, hi, hz0, hz1, hz2⟩ := info_parts Tryd.infoU8r
  obtain ⟨L, hL⟩ : ∃ L, s.data.toList = L := ⟨_, rfl⟩
  have HLn : Hid (L.length = s.size) := Lib.hid (by rw [← hL]; exact str_len _)
  have HL := Lib.hid hL
  rw [hL]
  clear hL
  go_enter Tryd.func23, Tryd.ntmps23
  go_upto_region 3 with fail
  go_loopw [3, 4] (fun v i wr => ∃ k : Nat, k ≤ s.size ∧ wr.ownsRow w.heap.size 5 1 v (2 * k) ((hexL (L.take k)).map bv) ∧ Below w.heap.size w wr ∧ i = .int .i64 k) (fun _ i _ => s.size - (intOf i).toNat)
  case atStart => exact ⟨0, Nat.zero_le _, ⟨by rfl, .inl ⟨rfl, rfl⟩⟩, Below.refl _ _, rfl⟩
  case round =>
    obtain ⟨k, hk, hown, hbel, rfl⟩ := hrel
    by_cases hlt : k < s.size
    · have d1 : decide ((k : Int) < (s.size : Int)) = true := decide_eq_true (by omega)
      obtain ⟨x, hx⟩ : ∃ x, L[k]? = some x := ⟨_, List.getElem?_eq_getElem (by have := HLn.out; omega)⟩
      have hht := hexL_take hx
      have hsk : s[k].toNat = x.toNat := by
        have h1 : s[k]? = some x := by rw [bytes_get, HL.out, hx]
        rw [getElem?_pos s k hlt] at h1
        rw [Option.some.inj h1]
      have hx256 := x.toNat_lt
      obtain ⟨xn, hxn⟩ : ∃ n, x.toNat = n := ⟨_, rfl⟩
      rw [hxn] at hx256 hht hsk
      have h16 : xn / 16 < 16 := by omega
      have hm16 : xn % 16 < 16 := by omega
      have HT := Lib.hid hht
      clear hx hht
      go_upto_region 5 with fail
      refine wp_region_facts_chain 14 (by decide) [Fact.eq (u3), Fact.eq (.string s), Fact.eq (.int .i64 k), Fact.eq (.int .u8 (xn : Int)), Fact.eq (.int .i64 (xn : Int)), Fact.eq (.int .i64 ((xn / 16 : Nat) : Int)), Fact.eq (.int .u8 ((hexd (xn / 16)).toNat : Int)), Fact.eq (.string s), Fact.eq (.int .i64 k), Fact.eq (.int .u8 (xn : Int)), Fact.eq (.int .i64 (xn : Int)), Fact.eq (.int .i64 ((xn % 16 : Nat) : Int)), Fact.eq (.int .u8 ((hexd (xn % 16)).toNat : Int)), Fact.row (2) ([Value.int .u8 ((hexd (xn / 16)).toNat : Int), Value.int .u8 ((hexd (xn % 16)).toNat : Int)])] (by kernel_rfl) (by kernel_rfl) (by kernel_rfl) (by kernel_rfl) (by kernel_rfl) (by kernel_rfl) (by kernel_rfl) (fun x => by simp only [List.take_succ_cons, List.take_zero, fillFrom, Act.put, List.setIfInBounds_toArray, List.set_cons_succ, List.set_cons_zero]; rfl) ?_ ?_
      · refine ⟨?_, ?_, ?_, ?_, ?_, ?_, ?_, ?_, ?_, ?_, ?_, ?_, ?_, ?_, trivial⟩
        · intro x w' hbw hd
          clear hd
          go_wp2_with fail
          exact frPost_mk rfl (by repeat (first | assumption | exact Below.refl _ _ | refine bch ?_ (by assumption) | refine Below.alloc ?_ (by simp) _)) rfl
        · intro x w' hbw hd
          clear hd
          go_wp2_with fail
          exact frPost_mk rfl (by repeat (first | assumption | exact Below.refl _ _ | refine bch ?_ (by assumption) | refine Below.alloc ?_ (by simp) _)) rfl
        · intro x w' hbw hd
          clear hd
          go_wp2_with fail
          exact frPost_mk rfl (by repeat (first | assumption | exact Below.refl _ _ | refine bch ?_ (by assumption) | refine Below.alloc ?_ (by simp) _)) rfl
        · intro x w' hbw hd
          have d1 : x 1 = .string s := hd 1 rfl
          have d2 : x 2 = .int .i64 k := hd 2 rfl
          clear hd
          go_wp2_with fail
          exact frPost_mk rfl (by repeat (first | assumption | exact Below.refl _ _ | refine bch ?_ (by assumption) | refine Below.alloc ?_ (by simp) _)) rfl
        · intro x w' hbw hd
          have d3 : x 3 = .int .u8 (xn : Int) := hd 3 rfl
          clear hd
          go_wp2_with fail
          exact frPost_mk rfl (by repeat (first | assumption | exact Below.refl _ _ | refine bch ?_ (by assumption) | refine Below.alloc ?_ (by simp) _)) rfl
        · intro x w' hbw hd
          have d4 : x 4 = .int .i64 (xn : Int) := hd 4 rfl
          clear hd
          go_wp2_with fail
          exact frPost_mk rfl (by repeat (first | assumption | exact Below.refl _ _ | refine bch ?_ (by assumption) | refine Below.alloc ?_ (by simp) _)) rfl
        · intro x w' hbw hd
          have d5 : x 5 = .int .i64 ((xn / 16 : Nat) : Int) := hd 5 rfl
          clear hd
          go_wp2_with (go_at_call 60; refine (rdigit_any _ h16 _).mono ?_; rintro e w5 ⟨rfl, hb5⟩)
          exact frPost_mk rfl (by repeat (first | assumption | exact Below.refl _ _ | refine bch ?_ (by assumption) | refine Below.alloc ?_ (by simp) _)) rfl
        · intro x w' hbw hd
          clear hd
          go_wp2_with fail
          exact frPost_mk rfl (by repeat (first | assumption | exact Below.refl _ _ | refine bch ?_ (by assumption) | refine Below.alloc ?_ (by simp) _)) rfl
        · intro x w' hbw hd
          clear hd
          go_wp2_with fail
          exact frPost_mk rfl (by repeat (first | assumption | exact Below.refl _ _ | refine bch ?_ (by assumption) | refine Below.alloc ?_ (by simp) _)) rfl
        · intro x w' hbw hd
          have d7 : x 7 = .string s := hd 7 rfl
          have d8 : x 8 = .int .i64 k := hd 8 rfl
          clear hd
          go_wp2_with fail
          exact frPost_mk rfl (by repeat (first | assumption | exact Below.refl _ _ | refine bch ?_ (by assumption) | refine Below.alloc ?_ (by simp) _)) rfl
        · intro x w' hbw hd
          have d9 : x 9 = .int .u8 (xn : Int) := hd 9 rfl
          clear hd
          go_wp2_with fail
          exact frPost_mk rfl (by repeat (first | assumption | exact Below.refl _ _ | refine bch ?_ (by assumption) | refine Below.alloc ?_ (by simp) _)) rfl
        · intro x w' hbw hd
          have d10 : x 10 = .int .i64 (xn : Int) := hd 10 rfl
          clear hd
          go_wp2_with fail
          exact frPost_mk rfl (by repeat (first | assumption | exact Below.refl _ _ | refine bch ?_ (by assumption) | refine Below.alloc ?_ (by simp) _)) rfl
        · intro x w' hbw hd
          have d11 : x 11 = .int .i64 ((xn % 16 : Nat) : Int) := hd 11 rfl
          clear hd
          go_wp2_with (go_at_call 60; refine (rdigit_any _ hm16 _).mono ?_; rintro e w5 ⟨rfl, hb5⟩)
          exact frPost_mk rfl (by repeat (first | assumption | exact Below.refl _ _ | refine bch ?_ (by assumption) | refine Below.alloc ?_ (by simp) _)) rfl
        · intro x w' hbw hd
          have d6 : x 6 = .int .u8 ((hexd (xn / 16)).toNat : Int) := hd 6 rfl
          have d12 : x 12 = .int .u8 ((hexd (xn % 16)).toNat : Int) := hd 12 rfl
          clear hd
          go_wp2_with fail
          exact frPost_mk rfl (by repeat (first | assumption | exact Below.refl _ _ | refine bch ?_ (by assumption) | refine Below.alloc ?_ (by simp) _)) ⟨_, _, rfl, RowAt.lit2 rfl rfl⟩
      · intro x w' hbw hall
        have f0 : x 0 = u3 := hall 0 (by decide)
        obtain ⟨a13, cap13, f13, r13⟩ := (show (Fact.row (2) ([Value.int .u8 ((hexd (xn / 16)).toNat : Int), Value.int .u8 ((hexd (xn % 16)).toNat : Int)])).holds (x 13) w' from hall 13 (by decide))
        clear hall
        simp only [f0, f13, List.drop_succ_cons, List.drop_zero]
        have hown := own_kept hown hbw
        have hb := hbel.trans (hbw.mono hbel.size)
        go_wp2_with (at_builtin; refine wpList_append_row rfl (.tmp 11) (.tmp 24) 72 rfl 5 i0 (.int .u8 0) 1 1 Tryd.underlying72 hi hz0 hz1 hz2 rfl (by decide) hown (by rfl) (by rfl) r13 rfl (by simp [Value.oneCell']) (by decide) (by unfold maxLen; omega) (by omega) hb.size ?_)
        intro v2 w4 hown2 hb4
        go_wp2
        go_roundw
        case rel => exact ⟨k + 1, by omega, by rw [HT.out, show 2 * (k + 1) = 2 * k + 2 by omega, List.map_append]; exact hown2, hb.trans hb4, by go_num⟩
        case measure => (simp [intOf]) <;> omega
    · have d1 : decide ((k : Int) < (s.size : Int)) = false := decide_eq_false (by omega)
      rw [List.take_of_length_le (by have := HLn.out; omega)] at hown
      have hcv := conv_own (P := Tryd.prog) hown 72 9 Tryd.underlying72 Tryd.underlying5 Tryd.underlying9
      go_wp2
      go_ret
      exact ⟨rfl, hbel⟩
/-- What the document's FromHex yields. -/
def frV (L : List UInt8) : List UInt8 × Bool := if allok L (L.length / 2) = true then (pairs L (L.length / 2), decide (L.length % 2 = 0)) else ([], false)
def nV (L : List UInt8) (k t : Nat) : Int := if pok L k = true ∧ pairV L k < t then (pairV L k : Int) else -1
theorem nV_step (L : List UInt8) (k t : Nat) : nV L k (t + 1) = if pok L k = true ∧ pairV L k = t then (t : Int) else nV L k t := by
  unfold nV
  by_cases h : pok L k = true
  · by_cases h2 : pairV L k = t
    · rw [if_pos ⟨h, by omega⟩, if_pos ⟨h, h2⟩, h2]
    · rw [if_neg (show ¬ (pok L k = true ∧ pairV L k = t) from fun x => h2 x.2)]
      by_cases h3 : pairV L k < t
      · rw [if_pos ⟨h, by omega⟩, if_pos ⟨h, h3⟩]
      · rw [if_neg (fun x => by omega), if_neg (fun x => h3 x.2)]
  · rw [if_neg (fun x => h x.1), if_neg (fun x => h x.1), if_neg (fun x => h x.1)]
set_option maxRecDepth 100000 in
set_option maxHeartbeats 12800000 in
theorem refFromHex_any (s : ByteArray) (w : World) (hsm : s.size ≤ 1000000) :
    Calls Tryd.prog 25 #[.string s] w fun e w' => e = .returned (.tuple #[.string ⟨(frV s.data.toList).1.toArray⟩, .bool (frV s.data.toList).2]) ∧ Below w.heap.size w w' := by
  obtain ⟨i0, hi, hz0, hz1, hz2⟩ := info_parts Tryd.infoU8r
  obtain ⟨L, hL⟩ : ∃ L, s.data.toList = L := ⟨_, rfl⟩
  have HLn : Hid (L.length = s.size) := Lib.hid (by rw [← hL]; exact str_len _)
  have HL := Lib.hid hL
  rw [hL]
  clear hL
  obtain ⟨n, hn⟩ : ∃ n, s.size = n := ⟨_, rfl⟩
  have HN := Lib.hid hn
  have hnI : (s.size : Int) = (n : Int) := by rw [hn]
  rw [hn] at hsm HLn
  clear hn
  go_enter Tryd.func25, Tryd.ntmps25
  go_upto_region 3 with fail
  go_loopw [4, 5] (fun v i wr => ∃ k : Nat, k ≤ n / 2 ∧ wr.ownsRow w.heap.size 5 1 v k ((pairs L k).map bv) ∧ Below w.heap.size w wr ∧ Hid (allok L k = true) ∧ i = .int .i64 (2 * (k : Int))) (fun _ i _ => n + 2 - (intOf i).toNat)
  case atStart => exact ⟨0, Nat.zero_le _, ⟨by rfl, .inl ⟨rfl, rfl⟩⟩, Below.refl _ _, Lib.hid rfl, rfl⟩
  case round =>
    obtain ⟨k, hk, hown, hbel, HOK, rfl⟩ := hrel
    have e1 : IntKind.i64.wrap (2 * (k : Int) + 1) = 2 * (k : Int) + 1 := IntWalk.i64_in _ (by omega)
    have e2 : IntKind.i64.wrap (2 * (k : Int) + 2) = 2 * (k : Int) + 2 := IntWalk.i64_in _ (by omega)
    by_cases hlt : k < n / 2
    · have d1 : decide (2 * (k : Int) + 1 < (n : Int)) = true := decide_eq_true (by omega)
      obtain ⟨x, hx⟩ : ∃ x, L.getD (2 * k) 0 = x := ⟨_, rfl⟩
      obtain ⟨y, hy⟩ : ∃ y, L.getD (2 * k + 1) 0 = y := ⟨_, rfl⟩
      have hx1 : s[2 * k]? = some x := by
        rw [bytes_get, HL.out, ← hx, List.getD_eq_getElem?_getD, List.getElem?_eq_getElem (by have := HLn.out; omega)]; rfl
      have hy1 : s[2 * k + 1]? = some y := by
        rw [bytes_get, HL.out, ← hy, List.getD_eq_getElem?_getD, List.getElem?_eq_getElem (by have := HLn.out; omega)]; rfl
      have hs0 : 2 * k < s.size := by have := HN.out; omega
      have hs1 : 2 * k + 1 < s.size := by have := HN.out; omega
      rw [getElem?_pos s _ hs0] at hx1
      rw [getElem?_pos s _ hs1] at hy1
      have hxs := Option.some.inj hx1
      have hys := Option.some.inj hy1
      have t1 : (2 * (k : Int)).toNat = 2 * k := by omega
      have t2 : (2 * (k : Int) + 1).toNat = 2 * k + 1 := by omega
      have n1 : (0 : Int) ≤ 2 * (k : Int) := by omega
      have n2 : (0 : Int) ≤ 2 * (k : Int) + 1 := by omega
      have n3 : 2 * (k : Int) < (n : Int) := by omega
      have HP : Hid (pok L k = (digk x && digk y)) := Lib.hid (by unfold pok; rw [hx, hy])
      have HV : Hid (pairV L k = digv x * 16 + digv y) := Lib.hid (by unfold pairV; rw [hx, hy])
      clear hx hy hx1 hy1
      go_upto_region 7 with fail
      obtain ⟨WO, hWO⟩ : ∃ W, W = wr := ⟨_, rfl⟩
      subst hWO
      have hwr : Below WO.heap.size WO WO := Below.refl _ _
      go_loopw [6, 7] (fun m v wx => ∃ t : Nat, t ≤ 256 ∧ Below WO.heap.size WO wx ∧ m = .int .i64 (nV L k t) ∧ v = .int .i64 t) (fun _ v _ => 256 - (intOf v).toNat)
      case atStart => exact ⟨0, Nat.zero_le _, hwr, by simp [nV], rfl⟩
      case round =>
        clear hwr
        obtain ⟨t, ht, hbx, rfl, rfl⟩ := hrel
        by_cases ht2 : t < 256
        · have d2 : decide ((t : Int) < 256) = true := decide_eq_true (by omega)
          have h16 : t / 16 < 16 := by omega
          have hm16 : t % 16 < 16 := by omega
          have CA := fun W => rdigit_any (t / 16) h16 W
          have CB := fun W => rdigit_any (t % 16) hm16 W
          have hgA := hexd_dig h16 x
          have hgB := hexd_dig hm16 y
          obtain ⟨ca, hca⟩ : ∃ c, hexd (t / 16) = c := ⟨_, rfl⟩
          obtain ⟨cb, hcb⟩ : ∃ c, hexd (t % 16) = c := ⟨_, rfl⟩
          rw [hca] at CA hgA
          rw [hcb] at CB hgB
          clear hca hcb
          have q1 : ((t / 16 : Nat) : Int) = (t : Int) / 16 := by omega
          have q2 : ((t % 16 : Nat) : Int) = (t : Int) % 16 := by omega
          rw [q1] at CA
          rw [q2] at CB
          have CA' := fun (m : Beyond wr) => CA m.x
          have CB' := fun (m : Beyond wr) => CB m.x
          have hst := nV_step L k t
          have hpv : pairV L k = t ↔ digv x = t / 16 ∧ digv y = t % 16 := by
            have := digv_lt x; have := digv_lt y; rw [HV.out]; omega
          clear CA CB
          by_cases hA : ca = x
          · have dA : ((ca.toNat : Int) == (x.toNat : Int)) = true := by rw [hA]; simp
            by_cases hB : cb = y
            · have dB : ((cb.toNat : Int) == (y.toNat : Int)) = true := by rw [hB]; simp
              have hfin : nV L k (t + 1) = t := by rw [hst, if_pos ⟨by rw [HP.out, (hgA.1 hA).1, (hgB.1 hB).1]; rfl, hpv.2 ⟨(hgA.1 hA).2, (hgB.1 hB).2⟩⟩]
              have HF := Lib.hid hfin
              clear hst hpv hgA hgB hA hB hfin
              go_upto_region 9 with fail
              obtain ⟨hcb, hfb⟩ := beyond_cells (W := wr)
              refine wp_region_below (by kernel_rfl) (by kernel_rfl) ?_
              repeat (go_big_quiet_step ((go_at_call 60; first | (with_reducible exact quiet_below (CA' _)) | (with_reducible exact quiet_below (CB' _)))))
              intro w9 hw9
              have hb9 := beyond_below hw9
              clear hcb hfb
              go_wp2
              go_roundw
              case rel => exact ⟨t + 1, by omega, hbx.trans (hb9.mono hbx.size), by rw [HF.out], by go_num⟩
              case measure => (simp [intOf]) <;> omega
            · have dB : ((cb.toNat : Int) == (y.toNat : Int)) = false := beq_eq_false_iff_ne.2 (fun h => hB (UInt8.toNat_inj.1 (by omega)))
              have hfin : nV L k (t + 1) = nV L k t := by rw [hst, if_neg (fun h => hB (hgB.2 ⟨by have := h.1; rw [HP.out, Bool.and_eq_true] at this; exact this.2, (hpv.1 h.2).2⟩))]
              have HF := Lib.hid hfin
              clear hst hpv hgA hgB hA hB hfin
              go_upto_region 9 with fail
              obtain ⟨hcb, hfb⟩ := beyond_cells (W := wr)
              refine wp_region_below (by kernel_rfl) (by kernel_rfl) ?_
              repeat (go_big_quiet_step ((go_at_call 60; first | (with_reducible exact quiet_below (CA' _)) | (with_reducible exact quiet_below (CB' _)))))
              intro w9 hw9
              have hb9 := beyond_below hw9
              clear hcb hfb
              go_wp2
              go_roundw
              case rel => exact ⟨t + 1, by omega, hbx.trans (hb9.mono hbx.size), by rw [HF.out], by go_num⟩
              case measure => (simp [intOf]) <;> omega
          · have dA : ((ca.toNat : Int) == (x.toNat : Int)) = false := beq_eq_false_iff_ne.2 (fun h => hA (UInt8.toNat_inj.1 (by omega)))
            have hfin : nV L k (t + 1) = nV L k t := by rw [hst, if_neg (fun h => hA (hgA.2 ⟨by have := h.1; rw [HP.out, Bool.and_eq_true] at this; exact this.1, (hpv.1 h.2).1⟩))]
            have HF := Lib.hid hfin
            clear hst hpv hgA hgB hA hfin
            go_upto_region 9 with fail
            obtain ⟨hcb, hfb⟩ := beyond_cells (W := wr)
            refine wp_region_below (by kernel_rfl) (by kernel_rfl) ?_
            repeat (go_big_quiet_step ((go_at_call 60; first | (with_reducible exact quiet_below (CA' _)) | (with_reducible exact quiet_below (CB' _)))))
            intro w9 hw9
            have hb9 := beyond_below hw9
            clear hcb hfb
            go_wp2
            go_roundw
            case rel => exact ⟨t + 1, by omega, hbx.trans (hb9.mono hbx.size), by rw [HF.out], by go_num⟩
            case measure => (simp [intOf]) <;> omega
        · obtain rfl : t = 256 := by omega
          have d2 : decide (((256 : Nat) : Int) < 256) = false := rfl
          have hp256 := pairV_lt L k
          cases hpk : pok L k
          · have hnv : nV L k 256 = -1 := by unfold nV; rw [if_neg (by rw [hpk]; simp)]
            have HR : Hid (frV L = ([], false)) := Lib.hid (by unfold frV; rw [if_neg (by rw [allok_not hpk (by rw [HLn.out]; exact hlt)]; decide)])
            rw [hnv]
            go_wp2
            go_ret2
            exact ⟨by rw [HR.out]; rfl, hbel.trans (hbx.mono hbel.size)⟩
          · have hnv : nV L k 256 = (pairV L k : Int) := by unfold nV; rw [if_pos ⟨hpk, hp256⟩]
            have hown := own_kept hown hbx
            have hb := hbel.trans (hbx.mono hbel.size)
            have HPK := Lib.hid hpk
            have hps := pairs_succ L k
            have hpb := pairB_nat L k
            obtain ⟨pv, hpv⟩ : ∃ p, pairV L k = p := ⟨_, rfl⟩
            rw [hpv] at hnv hp256 hpb
            rw [hnv]
            have d3 : decide ((pv : Int) < 0) = false := decide_eq_false (by omega)
            have m1 : (pv : Int) % 256 = (pv : Int) := by omega
            have HPS := Lib.hid hps
            have HPB := Lib.hid hpb
            clear hnv hpk hps hpb hpv HV HP
            go_wp2_with (at_builtin; refine wpList_push rfl (.tmp 39) (.tmp 42) 72 rfl 5 i0 (.int .u8 0) 1 Tryd.underlying72 hi hz0 hz1 hz2 rfl hown (by rfl) _ (by rfl) rfl (by unfold maxLen; omega) (by omega) hb.size ?_)
            intro v2 w4 hown2 hb4
            go_wp2
            go_roundw
            case rel => exact ⟨k + 1, by omega, by rw [HPS.out, List.map_append]; have e : [Value.int .u8 (pv : Int)] = [pairB L k].map bv := (by simp [bv, HPB.out]); rw [← e]; exact hown2, hb.trans hb4, Lib.hid (by rw [allok_succ, HOK.out, HPK.out]; rfl), by go_num⟩
            case measure => (simp [intOf]) <;> omega
    · have hk2 : k = n / 2 := by omega
      have d1 : decide (2 * (k : Int) + 1 < (n : Int)) = false := decide_eq_false (by omega)
      have hcv := conv_own (P := Tryd.prog) hown 72 9 Tryd.underlying72 Tryd.underlying5 Tryd.underlying9
      have HR : Hid (frV L = (pairs L k, decide (n % 2 = 0))) := Lib.hid (by unfold frV; rw [HLn.out, ← hk2, if_pos HOK.out])
      clear hk2
      by_cases hev : n % 2 = 0
      · have d4 : ((n : Int) % 2 == 0) = true := by rw [beq_iff_eq]; omega
        go_wp2
        go_ret2
        exact ⟨by rw [HR.out, decide_eq_true hev]; rfl, hbel⟩
      · have d4 : ((n : Int) % 2 == 0) = false := beq_eq_false_iff_ne.2 (by omega)
        go_wp2
        go_ret2
        exact ⟨by rw [HR.out, decide_eq_false hev]; rfl, hbel⟩
end Go.Proofs.YtfblbholkhdldaaDoor
