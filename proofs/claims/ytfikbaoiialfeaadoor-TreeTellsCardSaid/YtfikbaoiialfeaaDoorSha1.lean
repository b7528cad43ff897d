/- sha: words of 32 bits, turned. -/
import Derived.Test.YtfikbaoiialfeaaDoorRows
import Derived.Test.YtfikbaoiialfeaaDoorGA
import Derived.BigQuiet
import Derived.Deep.Cut
import Derived.WalkKit
import Derived.ProofKit
import Derived.Handy
import Derived.Below
import Derived.Lib.Hide
import Derived.IntWalk
import Derived.Outline
import Derived.WalkLawsBesides
import Derived.WalkSpells
namespace Go.Proofs.YtfikbaoiialfeaaDoor
open Go.RowKit
attribute [local go_sem] strV
def rr (x : Int) (n : Nat) : Int := bits .or .u32 (x / 2 ^ n) (x * 2 ^ (32 - n) % 4294967296)
def RN (n : Int) : Prop := n = 2 ∨ n = 6 ∨ n = 7 ∨ n = 11 ∨ n = 13 ∨ n = 17 ∨ n = 18 ∨ n = 19 ∨ n = 22 ∨ n = 25
theorem bits_or_comm (k : IntKind) (a b : Int) : bits .or k a b = bits .or k b a := by
  show k.wrap ((BitVec.ofInt k.bits a ||| BitVec.ofInt k.bits b).toNat : Int) = k.wrap ((BitVec.ofInt k.bits b ||| BitVec.ofInt k.bits a).toNat : Int)
  rw [BitVec.or_comm]
set_option maxRecDepth 100000 in
set_option maxHeartbeats 1600000 in
theorem turn_any (x : Int) (n : Int) (w : World) (hn : RN n) :
    Calls Tryd.prog 116 #[.int .u32 x, .int .i64 n] w fun e w' => e = .returned (.int .u32 (rr x n.toNat)) ∧ Below w.heap.size w w' := by
  rcases hn with rfl | rfl | rfl | rfl | rfl | rfl | rfl | rfl | rfl | rfl
  all_goals
    go_enter Tryd.func116, Tryd.ntmps116
    go_upto_region 1 with fail
    go_quiet (fail)
    go_wp2
    go_ret
    exact ⟨rfl, drewN_below _ _⟩
theorem m2 : bits .and .u64 (IntKind.u64.wrap (-2)) 31 = 30 := by decide +kernel
theorem m6 : bits .and .u64 (IntKind.u64.wrap (-6)) 31 = 26 := by decide +kernel
theorem m7 : bits .and .u64 (IntKind.u64.wrap (-7)) 31 = 25 := by decide +kernel
theorem m11 : bits .and .u64 (IntKind.u64.wrap (-11)) 31 = 21 := by decide +kernel
theorem m13 : bits .and .u64 (IntKind.u64.wrap (-13)) 31 = 19 := by decide +kernel
theorem m17 : bits .and .u64 (IntKind.u64.wrap (-17)) 31 = 15 := by decide +kernel
theorem m18 : bits .and .u64 (IntKind.u64.wrap (-18)) 31 = 14 := by decide +kernel
theorem m19 : bits .and .u64 (IntKind.u64.wrap (-19)) 31 = 13 := by decide +kernel
theorem m22 : bits .and .u64 (IntKind.u64.wrap (-22)) 31 = 10 := by decide +kernel
theorem m25 : bits .and .u64 (IntKind.u64.wrap (-25)) 31 = 7 := by decide +kernel
set_option maxRecDepth 100000 in
set_option maxHeartbeats 1600000 in
theorem rot_any (x : Int) (n : Int) (w : World) (hn : RN n) :
    Calls Tryd.prog 127 #[.int .u32 x, .int .i64 (-n)] w fun e w' => e = .returned (.int .u32 (rr x n.toNat)) ∧ Below w.heap.size w w' := by
  rcases hn with rfl | rfl | rfl | rfl | rfl | rfl | rfl | rfl | rfl | rfl
  · have f := m2
    go_enter Tryd.func127, Tryd.ntmps127
    go_wp2
    go_ret
    exact ⟨by rw [bits_or_comm]; rfl, Below.refl _ _⟩
  · have f := m6
    go_enter Tryd.func127, Tryd.ntmps127
    go_wp2
    go_ret
    exact ⟨by rw [bits_or_comm]; rfl, Below.refl _ _⟩
  · have f := m7
    go_enter Tryd.func127, Tryd.ntmps127
    go_wp2
    go_ret
    exact ⟨by rw [bits_or_comm]; rfl, Below.refl _ _⟩
  · have f := m11
    go_enter Tryd.func127, Tryd.ntmps127
    go_wp2
    go_ret
    exact ⟨by rw [bits_or_comm]; rfl, Below.refl _ _⟩
  · have f := m13
    go_enter Tryd.func127, Tryd.ntmps127
    go_wp2
    go_ret
    exact ⟨by rw [bits_or_comm]; rfl, Below.refl _ _⟩
  · have f := m17
    go_enter Tryd.func127, Tryd.ntmps127
    go_wp2
    go_ret
    exact ⟨by rw [bits_or_comm]; rfl, Below.refl _ _⟩
  · have f := m18
    go_enter Tryd.func127, Tryd.ntmps127
    go_wp2
    go_ret
    exact ⟨by rw [bits_or_comm]; rfl, Below.refl _ _⟩
  · have f := m19
    go_enter Tryd.func127, Tryd.ntmps127
    go_wp2
    go_ret
    exact ⟨by rw [bits_or_comm]; rfl, Below.refl _ _⟩
  · have f := m22
    go_enter Tryd.func127, Tryd.ntmps127
    go_wp2
    go_ret
    exact ⟨by rw [bits_or_comm]; rfl, Below.refl _ _⟩
  · have f := m25
    go_enter Tryd.func127, Tryd.ntmps127
    go_wp2
    go_ret
    exact ⟨by rw [bits_or_comm]; rfl, Below.refl _ _⟩
set_option maxRecDepth 100000 in
set_option maxHeartbeats 1600000 in
theorem right_any (x : Int) (n : Int) (w : World) (hn : RN n) :
    Calls Tryd.prog 124 #[.int .u32 x, .int .i64 n] w fun e w' => e = .returned (.int .u32 (rr x n.toNat)) ∧ Below w.heap.size w w' := by
  have CR := fun W => rot_any x n W hn
  rcases hn with rfl | rfl | rfl | rfl | rfl | rfl | rfl | rfl | rfl | rfl
  all_goals
    go_enter Tryd.func124, Tryd.ntmps124
    go_wp2_with (go_at_call 127; refine (CR _).mono ?_; rintro e w1 ⟨rfl, hb1⟩)
    go_ret
    exact ⟨rfl, hb1⟩
end Go.Proofs.YtfikbaoiialfeaaDoor
