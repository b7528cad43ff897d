/- The contracts of the library's functions at this program, laid by the kit's command in plain words. -/
import Derived.Shelf.Small.Bits
import Derived.Shelf.Small.Strs
import Derived.Shelf.Small.Wraps
import Derived.Shelf.Strconv.Itoa0
import Derived.Shelf.Sort.Plain
import Derived.Shelf.Strings.Prefix
import Derived.Ground.Names2Prog
import Derived.Shelf.Slices.SearchI
import Derived.Shelf.Slices.In.SortNone
import Derived.Test.YtbckncopdkmoeaaProg
namespace Go.Proofs
open Go.Shelf
def Try.lays128_ren : Go.Shelf.Ren := ⟨fun | 128 => 127 | n => n, fun | 51 => 182 | 3 => 3 | 4 => 4 | 46 => 164 | 5 => 5 | 9 => 9 | n => n, fun | n => n⟩
theorem Try.lays128 : Go.Proofs.Lays.n128 Try.prog Try.lays128_ren := {
  mixed := by kernel_rfl
  f128 := Try.func127.trans (congrArg some (by kernel_rfl))
  t3 := Try.underlying3
  a3 := Try.isAgg3
  z3 := Try.sizeOf3
  v3 := Try.zeroValue3
  t4 := Try.underlying4
  a4 := Try.isAgg4
  z4 := Try.sizeOf4
  v4 := Try.zeroValue4
  t5 := Try.underlying5
  a5 := Try.isAgg5
  z5 := Try.sizeOf5
  v5 := Try.zeroValue5
  t9 := Try.underlying9
  a9 := Try.isAgg9
  z9 := Try.sizeOf9
  v9 := Try.zeroValue9
  t46 := Try.underlying164
  a46 := Try.isAgg164
  z46 := Try.sizeOf164
  v46 := Try.zeroValue164
  t51 := Try.underlying182
  a51 := Try.isAgg182
  z51 := Try.sizeOf182
  v51 := Try.zeroValue182 }
theorem Try.bits_Len32 (x : Int) (w : World) (h0 : 0 ≤ x) (h1 : x ≤ 4294967295) :
    Calls Try.prog 127 #[.int .u32 x] w fun e w' => e = .returned (.int .i64 (Lib.bitLen x.toNat)) ∧ w' = w := Any.bits_Len32 Try.lays128 x w h0 h1
def Try.lays125_ren : Go.Shelf.Ren := ⟨fun | 125 => 110 | 128 => 127 | 129 => 128 | n => n, fun | 46 => 164 | 3 => 3 | 51 => 182 | 53 => 184 | 4 => 4 | 5 => 5 | 9 => 9 | n => n, fun | n => n⟩
theorem Try.lays125 : Go.Proofs.Lays.n125 Try.prog Try.lays125_ren := {
  mixed := by kernel_rfl
  f125 := Try.func110.trans (congrArg some (by kernel_rfl))
  f128 := Try.func127.trans (congrArg some (by kernel_rfl))
  f129 := Try.func128.trans (congrArg some (by kernel_rfl))
  t3 := Try.underlying3
  a3 := Try.isAgg3
  z3 := Try.sizeOf3
  v3 := Try.zeroValue3
  t4 := Try.underlying4
  a4 := Try.isAgg4
  z4 := Try.sizeOf4
  v4 := Try.zeroValue4
  t5 := Try.underlying5
  a5 := Try.isAgg5
  z5 := Try.sizeOf5
  v5 := Try.zeroValue5
  t9 := Try.underlying9
  a9 := Try.isAgg9
  z9 := Try.sizeOf9
  v9 := Try.zeroValue9
  t46 := Try.underlying164
  a46 := Try.isAgg164
  z46 := Try.sizeOf164
  v46 := Try.zeroValue164
  t51 := Try.underlying182
  a51 := Try.isAgg182
  z51 := Try.sizeOf182
  v51 := Try.zeroValue182
  t53 := Try.underlying184
  a53 := Try.isAgg184
  z53 := Try.sizeOf184
  v53 := Try.zeroValue184 }
theorem Try.bits_Len (x : Int) (w : World) (h0 : 0 ≤ x) (h1 : x ≤ 18446744073709551615) :
    Calls Try.prog 110 #[.int .u64 x] w fun e w' => e = .returned (.int .i64 (Lib.bitLen x.toNat)) ∧ w' = w := Any.bits_Len Try.lays125 x w h0 h1
def Try.lays213_ren : Go.Shelf.Ren := ⟨fun | 213 => 106 | 265 => 116 | n => n, fun | 9 => 9 | 3 => 3 | n => n, fun | n => n⟩
theorem Try.lays213 : Go.Proofs.Lays.n213 Try.prog Try.lays213_ren := {
  mixed := by kernel_rfl
  f213 := Try.func106.trans (congrArg some (by kernel_rfl))
  f265 := Try.func116.trans (congrArg some (by kernel_rfl))
  t3 := Try.underlying3
  a3 := Try.isAgg3
  z3 := Try.sizeOf3
  v3 := Try.zeroValue3
  t9 := Try.underlying9
  a9 := Try.isAgg9
  z9 := Try.sizeOf9
  v9 := Try.zeroValue9 }
open Go.RowKit in
theorem Try.bytealg_CompareString (a b : ByteArray) (w : World) :
    Calls Try.prog 106 #[.string a, .string b] w fun e w' => e = .returned (.int .i64 (Lib.compareBytes a.data.toList b.data.toList)) ∧ w' = w := Any.bytealg_CompareString Try.lays213 a b w
def Try.lays106_ren : Go.Shelf.Ren := ⟨fun | 106 => 82 | 213 => 106 | 265 => 116 | n => n, fun | 9 => 9 | 3 => 3 | n => n, fun | n => n⟩
theorem Try.lays106 : Go.Proofs.Lays.n106 Try.prog Try.lays106_ren := {
  mixed := by kernel_rfl
  f106 := Try.func82.trans (congrArg some (by kernel_rfl))
  f213 := Try.func106.trans (congrArg some (by kernel_rfl))
  f265 := Try.func116.trans (congrArg some (by kernel_rfl))
  t3 := Try.underlying3
  a3 := Try.isAgg3
  z3 := Try.sizeOf3
  v3 := Try.zeroValue3
  t9 := Try.underlying9
  a9 := Try.isAgg9
  z9 := Try.sizeOf9
  v9 := Try.zeroValue9 }
open Go.RowKit in
theorem Try.strings_Compare (a b : ByteArray) (w : World) :
    Calls Try.prog 82 #[.string a, .string b] w fun e w' => e = .returned (.int .i64 (Lib.compareBytes a.data.toList b.data.toList)) ∧ w' = w := Any.strings_Compare Try.lays106 a b w
def Try.lays215_ren : Go.Shelf.Ren := ⟨fun | 215 => 102 | n => n, fun | 3 => 3 | 4 => 4 | n => n, fun | n => n⟩
theorem Try.lays215 : Go.Proofs.Lays.n215 Try.prog Try.lays215_ren := {
  mixed := by kernel_rfl
  f215 := Try.func102.trans (congrArg some (by kernel_rfl))
  t3 := Try.underlying3
  a3 := Try.isAgg3
  z3 := Try.sizeOf3
  v3 := Try.zeroValue3
  t4 := Try.underlying4
  a4 := Try.isAgg4
  z4 := Try.sizeOf4
  v4 := Try.zeroValue4 }
open Go.RowKit in
theorem Try.cmp_isNaN_int (x : Int) (w : World) :
    Calls Try.prog 102 #[.int .i64 x] w fun e w' => e = .returned (.bool false) ∧ w' = w := Any.cmp_isNaN_int Try.lays215 x w
def Try.lays122_ren : Go.Shelf.Ren := ⟨fun | 122 => 74 | 215 => 102 | n => n, fun | 3 => 3 | 4 => 4 | n => n, fun | n => n⟩
theorem Try.lays122 : Go.Proofs.Lays.n122 Try.prog Try.lays122_ren := {
  mixed := by kernel_rfl
  f122 := Try.func74.trans (congrArg some (by kernel_rfl))
  f215 := Try.func102.trans (congrArg some (by kernel_rfl))
  t3 := Try.underlying3
  a3 := Try.isAgg3
  z3 := Try.sizeOf3
  v3 := Try.zeroValue3
  t4 := Try.underlying4
  a4 := Try.isAgg4
  z4 := Try.sizeOf4
  v4 := Try.zeroValue4 }
open Go.RowKit in
theorem Try.cmp_Compare_int (x y : Int) (w : World) :
    Calls Try.prog 74 #[.int .i64 x, .int .i64 y] w fun e w' => e = .returned (.int .i64 (Lib.compareInt x y)) ∧ w' = w := Any.cmp_Compare_int Try.lays122 x y w
def Try.lays129_ren : Go.Shelf.Ren := ⟨fun | 129 => 128 | n => n, fun | 53 => 184 | 3 => 3 | 4 => 4 | 46 => 164 | 5 => 5 | 9 => 9 | n => n, fun | n => n⟩
theorem Try.lays129 : Go.Proofs.Lays.n129 Try.prog Try.lays129_ren := {
  mixed := by kernel_rfl
  f129 := Try.func128.trans (congrArg some (by kernel_rfl))
  t3 := Try.underlying3
  a3 := Try.isAgg3
  z3 := Try.sizeOf3
  v3 := Try.zeroValue3
  t4 := Try.underlying4
  a4 := Try.isAgg4
  z4 := Try.sizeOf4
  v4 := Try.zeroValue4
  t5 := Try.underlying5
  a5 := Try.isAgg5
  z5 := Try.sizeOf5
  v5 := Try.zeroValue5
  t9 := Try.underlying9
  a9 := Try.isAgg9
  z9 := Try.sizeOf9
  v9 := Try.zeroValue9
  t46 := Try.underlying164
  a46 := Try.isAgg164
  z46 := Try.sizeOf164
  v46 := Try.zeroValue164
  t53 := Try.underlying184
  a53 := Try.isAgg184
  z53 := Try.sizeOf184
  v53 := Try.zeroValue184 }
theorem Try.bits_Len64 (x : Int) (w : World) (h0 : 0 ≤ x) (h1 : x ≤ 18446744073709551615) :
    Calls Try.prog 128 #[.int .u64 x] w fun e w' => e = .returned (.int .i64 (Lib.bitLen x.toNat)) ∧ w' = w := Any.bits_Len64 Try.lays129 x w h0 h1
def Try.lays189_ren : Go.Shelf.Ren := ⟨fun | 189 => 88 | 125 => 110 | 257 => 109 | 128 => 127 | 129 => 128 | 294 => 118 | 295 => 119 | 296 => 120 | 297 => 121 | 298 => 122 | 299 => 123 | 216 => 124 | 300 => 125 | 301 => 126 | 328 => 147 | 329 => 148 | 330 => 149 | 331 => 150 | 332 => 151 | 215 => 102 | 343 => 158 | n => n, fun | 28 => 55 | 3 => 3 | 46 => 164 | 0 => 0 | 51 => 182 | 53 => 184 | 4 => 4 | 183 => 175 | 182 => 174 | 131 => 105 | 5 => 5 | 9 => 9 | 218 => 196 | 222 => 200 | 228 => 206 | 229 => 207 | n => n, fun | n => n⟩
theorem Try.lays189 : Go.Proofs.Lays.n189 Try.prog Try.lays189_ren := {
  mixed := by kernel_rfl
  f125 := Try.func110.trans (congrArg some (by kernel_rfl))
  f128 := Try.func127.trans (congrArg some (by kernel_rfl))
  f129 := Try.func128.trans (congrArg some (by kernel_rfl))
  f189 := Try.func88.trans (congrArg some (by kernel_rfl))
  f215 := Try.func102.trans (congrArg some (by kernel_rfl))
  f216 := Try.func124.trans (congrArg some (by kernel_rfl))
  f257 := Try.func109.trans (congrArg some (by kernel_rfl))
  f294 := Try.func118.trans (congrArg some (by kernel_rfl))
  f295 := Try.func119.trans (congrArg some (by kernel_rfl))
  f296 := Try.func120.trans (congrArg some (by kernel_rfl))
  f297 := Try.func121.trans (congrArg some (by kernel_rfl))
  f298 := Try.func122.trans (congrArg some (by kernel_rfl))
  f299 := Try.func123.trans (congrArg some (by kernel_rfl))
  f300 := Try.func125.trans (congrArg some (by kernel_rfl))
  f301 := Try.func126.trans (congrArg some (by kernel_rfl))
  f328 := Try.func147.trans (congrArg some (by kernel_rfl))
  f329 := Try.func148.trans (congrArg some (by kernel_rfl))
  f330 := Try.func149.trans (congrArg some (by kernel_rfl))
  f331 := Try.func150.trans (congrArg some (by kernel_rfl))
  f332 := Try.func151.trans (congrArg some (by kernel_rfl))
  f343 := Try.func158.trans (congrArg some (by kernel_rfl))
  t0 := Try.underlying0
  a0 := Try.isAgg0
  z0 := Try.sizeOf0
  v0 := Try.zeroValue0
  t3 := Try.underlying3
  a3 := Try.isAgg3
  z3 := Try.sizeOf3
  v3 := Try.zeroValue3
  t4 := Try.underlying4
  a4 := Try.isAgg4
  z4 := Try.sizeOf4
  v4 := Try.zeroValue4
  t5 := Try.underlying5
  a5 := Try.isAgg5
  z5 := Try.sizeOf5
  v5 := Try.zeroValue5
  t9 := Try.underlying9
  a9 := Try.isAgg9
  z9 := Try.sizeOf9
  v9 := Try.zeroValue9
  t28 := Try.underlying55
  a28 := Try.isAgg55
  z28 := Try.sizeOf55
  v28 := Try.zeroValue55
  t46 := Try.underlying164
  a46 := Try.isAgg164
  z46 := Try.sizeOf164
  v46 := Try.zeroValue164
  t51 := Try.underlying182
  a51 := Try.isAgg182
  z51 := Try.sizeOf182
  v51 := Try.zeroValue182
  t53 := Try.underlying184
  a53 := Try.isAgg184
  z53 := Try.sizeOf184
  v53 := Try.zeroValue184
  t131 := Try.underlying105
  a131 := Try.isAgg105
  z131 := Try.sizeOf105
  v131 := Try.zeroValue105
  t182 := Try.underlying174
  a182 := Try.isAgg174
  z182 := Try.sizeOf174
  v182 := Try.zeroValue174
  t183 := Try.underlying175
  a183 := Try.isAgg175
  z183 := Try.sizeOf175
  v183 := Try.zeroValue175
  t218 := Try.underlying196
  a218 := Try.isAgg196
  z218 := Try.sizeOf196
  v218 := Try.zeroValue196
  t222 := Try.underlying200
  a222 := Try.isAgg200
  z222 := Try.sizeOf200
  v222 := Try.zeroValue200
  t228 := Try.underlying206
  a228 := Try.isAgg206
  z228 := Try.sizeOf206
  v228 := Try.zeroValue206
  t229 := Try.underlying207
  a229 := Try.isAgg207
  z229 := Try.sizeOf207
  v229 := Try.zeroValue207 }
open Go.Sort Go.RowKit in
theorem Try.slices_Sort_int (blk off cap : Nat) (zs : List Int) (w : World) (hH : Holds (Value.int .i64) w blk off zs.toArray) (hblk : blk < w.heap.size) (hsz : zs.length < 4611686018427387904) :
    Calls Try.prog 88 #[.slice (some ⟨blk, off, none⟩) zs.length cap] w fun e w' =>
      e = .returned (.tuple #[]) ∧ ∃ n os, w' = grow (putRow (Value.int .i64) (Sort.ahead w n) blk off (zs.mergeSort fun x y => decide (x ≤ y)).toArray) os := Any.slices_Sort_int Try.lays189 blk off cap zs w hH hblk hsz
def Try.lays206_ren : Go.Shelf.Ren := ⟨fun | 206 => 85 | n => n, fun | 9 => 9 | 4 => 4 | 3 => 3 | n => n, fun | n => n⟩
theorem Try.lays206 : Go.Proofs.Lays.n206 Try.prog Try.lays206_ren := {
  mixed := by kernel_rfl
  f206 := Try.func85.trans (congrArg some (by kernel_rfl))
  t3 := Try.underlying3
  a3 := Try.isAgg3
  z3 := Try.sizeOf3
  v3 := Try.zeroValue3
  t4 := Try.underlying4
  a4 := Try.isAgg4
  z4 := Try.sizeOf4
  v4 := Try.zeroValue4
  t9 := Try.underlying9
  a9 := Try.isAgg9
  z9 := Try.sizeOf9
  v9 := Try.zeroValue9 }
open Go.RowKit Go.Lib in
theorem Try.stringslite_HasPrefix (s p : ByteArray) (w : World) :
    Calls Try.prog 85 #[.string s, .string p] w fun e w' => e = .returned (.bool (Lib.hasPrefix s.data.toList p.data.toList)) ∧ w' = w := Any.stringslite_HasPrefix Try.lays206 s p w
def Try.lays99_ren : Go.Shelf.Ren := ⟨fun | 99 => 50 | 206 => 85 | n => n, fun | 9 => 9 | 4 => 4 | 3 => 3 | n => n, fun | n => n⟩
theorem Try.lays99 : Go.Proofs.Lays.n99 Try.prog Try.lays99_ren := {
  mixed := by kernel_rfl
  f99 := Try.func50.trans (congrArg some (by kernel_rfl))
  f206 := Try.func85.trans (congrArg some (by kernel_rfl))
  t3 := Try.underlying3
  a3 := Try.isAgg3
  z3 := Try.sizeOf3
  v3 := Try.zeroValue3
  t4 := Try.underlying4
  a4 := Try.isAgg4
  z4 := Try.sizeOf4
  v4 := Try.zeroValue4
  t9 := Try.underlying9
  a9 := Try.isAgg9
  z9 := Try.sizeOf9
  v9 := Try.zeroValue9 }
open Go.RowKit Go.Lib in
theorem Try.strings_HasPrefix (s p : ByteArray) (w : World) :
    Calls Try.prog 50 #[.string s, .string p] w fun e w' => e = .returned (.bool (Lib.hasPrefix s.data.toList p.data.toList)) ∧ w' = w := Any.strings_HasPrefix Try.lays99 s p w
def Try.laysNm237_ren : Go.Shelf.Ren := ⟨fun | 37 => 102 | n => n, fun | 3 => 3 | 4 => 4 | n => n, fun | n => n⟩
theorem Try.laysNm237 : Go.Proofs.Lays2.n37 Try.prog Try.laysNm237_ren := {
  mixed := by kernel_rfl
  f37 := Try.func102.trans (congrArg some (by kernel_rfl))
  t3 := Try.underlying3
  a3 := Try.isAgg3
  z3 := Try.sizeOf3
  v3 := Try.zeroValue3
  t4 := Try.underlying4
  a4 := Try.isAgg4
  z4 := Try.sizeOf4
  v4 := Try.zeroValue4 }
open Go.RowKit Go.Lib in
theorem Try.cmp_isNaN_int2 (x : Int) (w : World) :
    Calls Try.prog 102 #[.int .i64 x] w fun e w' => e = .returned (.bool false) ∧ w' = w := Any.cmp_isNaN_int2 Try.laysNm237 x w
def Try.laysNm231_ren : Go.Shelf.Ren := ⟨fun | 31 => 124 | 37 => 102 | n => n, fun | 3 => 3 | 4 => 4 | n => n, fun | n => n⟩
theorem Try.laysNm231 : Go.Proofs.Lays2.n31 Try.prog Try.laysNm231_ren := {
  mixed := by kernel_rfl
  f31 := Try.func124.trans (congrArg some (by kernel_rfl))
  f37 := Try.func102.trans (congrArg some (by kernel_rfl))
  t3 := Try.underlying3
  a3 := Try.isAgg3
  z3 := Try.sizeOf3
  v3 := Try.zeroValue3
  t4 := Try.underlying4
  a4 := Try.isAgg4
  z4 := Try.sizeOf4
  v4 := Try.zeroValue4 }
open Go.RowKit Go.Lib in
theorem Try.cmp_Less_int2 (x y : Int) (w : World) :
    Calls Try.prog 124 #[.int .i64 x, .int .i64 y] w fun e w' => e = .returned (.bool (decide (x < y))) ∧ w' = w := Any.cmp_Less_int2 Try.laysNm231 x y w
open Go.RowKit Go.Sort in
theorem Try.slices_Sort_int_none (p : Option Addr) (cap : Nat) (w : World) :
    Calls Try.prog 88 #[.slice p 0 cap] w fun e w' => e = .returned (.tuple #[]) ∧ w' = w := Any.slices_Sort_int_none Try.lays189 p cap w
end Go.Proofs
