/- Contracts of the library's functions on keys of maps at this program, laid by the kit's command in plain words. -/
import Derived.Shelf.SlIterI.Sorted
import Derived.Shelf.SlIterI.Keys
import Derived.Shelf.SlIterI.Collect
import Derived.Test.YtbckncopdkmoeaaProg
namespace Go.Proofs
open Go.Shelf
def Try.keysH_ren : Go.Shelf.Ren := ⟨fun | 7 => 55 | 10 => 89 | n => n, fun | 23 => 108 | 26 => 3 | 3 => 43 | 28 => 116 | 0 => 0 | 27 => 115 | 33 => 124 | 4 => 4 | n => n, fun | n => n⟩
theorem Try.keysH : Go.Proofs.SlLaysZI.n7 Try.prog Try.keysH_ren := {
  mixed := by kernel_rfl
  f7 := ⟨Try.f55.name, by decide, Try.func55.trans (congrArg some (by kernel_rfl))⟩
  f10 := ⟨Try.f89.name, by decide, Try.func89.trans (congrArg some (by kernel_rfl))⟩
  t0 := Try.underlying0
  a0 := Try.isAgg0
  z0 := Try.sizeOf0
  v0 := Try.zeroValue0
  t4 := Try.underlying4
  a4 := Try.isAgg4
  z4 := Try.sizeOf4
  v4 := Try.zeroValue4
  t23 := Try.underlying108
  a23 := Try.isAgg108
  z23 := Try.sizeOf108
  v23 := Try.zeroValue108
  t26 := Try.underlying3
  a26 := Try.isAgg3
  z26 := Try.sizeOf3
  v26 := Try.zeroValue3
  t27 := Try.underlying115
  a27 := Try.isAgg115
  z27 := Try.sizeOf115
  v27 := Try.zeroValue115
  t28 := Try.underlying116
  a28 := Try.isAgg116
  z28 := Try.sizeOf116
  v28 := Try.zeroValue116
  t33 := Try.underlying124
  a33 := Try.isAgg124
  z33 := Try.sizeOf124
  v33 := Try.zeroValue124 }
def Try.sortedH_ren : Go.Shelf.Ren := ⟨fun | 6 => 54 | 8 => 87 | 9 => 88 | 11 => 108 | 13 => 110 | 12 => 109 | 23 => 127 | 24 => 128 | 14 => 118 | 15 => 119 | 16 => 120 | 17 => 121 | 18 => 122 | 19 => 123 | 20 => 124 | 21 => 125 | 22 => 126 | 25 => 147 | 26 => 148 | 27 => 149 | 28 => 150 | 29 => 151 | 30 => 102 | 31 => 158 | n => n, fun | 26 => 3 | 28 => 116 | 24 => 55 | 0 => 0 | 3 => 3 | 37 => 164 | 48 => 182 | 50 => 184 | 4 => 4 | 40 => 175 | 39 => 174 | 45 => 105 | 5 => 5 | 9 => 9 | 51 => 196 | 55 => 200 | 57 => 206 | 58 => 207 | 33 => 124 | n => n, fun | n => n⟩
theorem Try.sortedH : Go.Proofs.SlLaysZI.n6 Try.prog Try.sortedH_ren := {
  mixed := by kernel_rfl
  f6 := ⟨Try.f54.name, by decide, Try.func54.trans (congrArg some (by kernel_rfl))⟩
  f8 := ⟨Try.f87.name, by decide, Try.func87.trans (congrArg some (by kernel_rfl))⟩
  f11 := ⟨Try.f108.name, by decide, Try.func108.trans (congrArg some (by kernel_rfl))⟩
  t0 := Try.underlying0
  a0 := Try.isAgg0
  z0 := Try.sizeOf0
  v0 := Try.zeroValue0
  t24 := Try.underlying55
  a24 := Try.isAgg55
  z24 := Try.sizeOf55
  v24 := Try.zeroValue55
  t26 := Try.underlying3
  a26 := Try.isAgg3
  z26 := Try.sizeOf3
  v26 := Try.zeroValue3
  t28 := Try.underlying116
  a28 := Try.isAgg116
  z28 := Try.sizeOf116
  v28 := Try.zeroValue116
  i26 := by kernel_rfl }
end Go.Proofs
