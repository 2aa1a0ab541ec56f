/-
  DERIVED: THE SHELF's CONTRACTS AT THIS DUMP, IN PLAIN WORDS (tools/lay-plain.mjs out of 'TrydShelf.lean', which tools/lay-shelf.mjs wrote): THE SAME DECLARATIONS UNDER THE SAME NAMES: 'import', 'namespace', 'open', 'def', 'theorem' AND NOTHING ELSE: no command of the shelf's: FOR A HAND-IN. Each laying: the table of numbers ('.._ren') and one theorem, a field a fact of the dump's own or the kernel's comparison; each contract: ONE APPLICATION.
-/
import Derived.Shelf.Small.Bits
import Derived.Shelf.Small.Wraps
import Derived.Shelf.Strconv.Itoa0
import Derived.Shelf.Strconv.Itoa1
import Derived.Shelf.LaysM
import Derived.Shelf.Strconv.Itoa2
import Derived.Shelf.Strconv.Itoa3
import Derived.Shelf.Strconv.Itoa4
import Derived.Shelf.Bits.Mul64
import Derived.Ground.Names2Prog
import Derived.Shelf.Slices.SearchI
import Derived.Ground.SlsfProg
import Derived.Shelf.SlSortCmp.Insertion
import Derived.Shelf.SlSortCmp.Small
import Derived.Shelf.SlSortCmp.SiftDown1
import Derived.Shelf.SlSortCmp.HeapSort1
import Derived.Shelf.SlSortCmp.Insertion1
import Derived.Shelf.SlSortCmp.Median1
import Derived.Shelf.SlSortCmp.Pivot1
import Derived.Shelf.SlSortCmp.ReverseRange1
import Derived.Shelf.SlSortCmp.PartialInsertion1
import Derived.Shelf.SlSortCmp.PartitionEqual1
import Derived.Shelf.SlSortCmp.Partition1
import Derived.Shelf.SlSortCmp.Pdq1
import Derived.Shelf.SlSortCmp.Whole1
import Derived.Shelf.SlSortCmp.NoneTotal
import Derived.Test.YtmdgjgeblplhpaaDoorProg
namespace Go.Proofs
open Go.Shelf
def Tryd.lays128_ren : Go.Shelf.Ren := ⟨fun | 128 => 83 | n => n, fun | 51 => 112 | 3 => 3 | 4 => 4 | 46 => 92 | 5 => 5 | 9 => 9 | n => n, fun | n => n⟩
theorem Tryd.lays128 : Go.Proofs.Lays.n128 Tryd.prog Tryd.lays128_ren := {
  mixed := by kernel_rfl
  f128 := Tryd.func83.trans (congrArg some (by kernel_rfl))
  t3 := Tryd.underlying3
  a3 := Tryd.isAgg3
  z3 := Tryd.sizeOf3
  v3 := Tryd.zeroValue3
  t4 := Tryd.underlying4
  a4 := Tryd.isAgg4
  z4 := Tryd.sizeOf4
  v4 := Tryd.zeroValue4
  t5 := Tryd.underlying5
  a5 := Tryd.isAgg5
  z5 := Tryd.sizeOf5
  v5 := Tryd.zeroValue5
  t9 := Tryd.underlying9
  a9 := Tryd.isAgg9
  z9 := Tryd.sizeOf9
  v9 := Tryd.zeroValue9
  t46 := Tryd.underlying92
  a46 := Tryd.isAgg92
  z46 := Tryd.sizeOf92
  v46 := Tryd.zeroValue92
  t51 := Tryd.underlying112
  a51 := Tryd.isAgg112
  z51 := Tryd.sizeOf112
  v51 := Tryd.zeroValue112 }
/-- bits.Len32: "Len32 returns the minimum number of bits required to represent x; the result is 0 for x == 0.": IT RETURNS 'Lib.bitLen x'; the world is as it was. ('h0', 'h1': x is a uint32.) (LAID: no walk: one application.) -/
theorem Tryd.bits_Len32 (x : Int) (w : World) (h0 : 0 ≤ x) (h1 : x ≤ 4294967295) :
    Calls Tryd.prog 83 #[.int .u32 x] w fun e w' => e = .returned (.int .i64 (Lib.bitLen x.toNat)) ∧ w' = w := Any.bits_Len32 Tryd.lays128 x w h0 h1
def Tryd.lays125_ren : Go.Shelf.Ren := ⟨fun | 125 => 68 | 128 => 83 | 129 => 84 | n => n, fun | 46 => 92 | 3 => 3 | 51 => 112 | 53 => 57 | 4 => 4 | 5 => 5 | 9 => 9 | n => n, fun | n => n⟩
theorem Tryd.lays125 : Go.Proofs.Lays.n125 Tryd.prog Tryd.lays125_ren := {
  mixed := by kernel_rfl
  f125 := Tryd.func68.trans (congrArg some (by kernel_rfl))
  f128 := Tryd.func83.trans (congrArg some (by kernel_rfl))
  f129 := Tryd.func84.trans (congrArg some (by kernel_rfl))
  t3 := Tryd.underlying3
  a3 := Tryd.isAgg3
  z3 := Tryd.sizeOf3
  v3 := Tryd.zeroValue3
  t4 := Tryd.underlying4
  a4 := Tryd.isAgg4
  z4 := Tryd.sizeOf4
  v4 := Tryd.zeroValue4
  t5 := Tryd.underlying5
  a5 := Tryd.isAgg5
  z5 := Tryd.sizeOf5
  v5 := Tryd.zeroValue5
  t9 := Tryd.underlying9
  a9 := Tryd.isAgg9
  z9 := Tryd.sizeOf9
  v9 := Tryd.zeroValue9
  t46 := Tryd.underlying92
  a46 := Tryd.isAgg92
  z46 := Tryd.sizeOf92
  v46 := Tryd.zeroValue92
  t51 := Tryd.underlying112
  a51 := Tryd.isAgg112
  z51 := Tryd.sizeOf112
  v51 := Tryd.zeroValue112
  t53 := Tryd.underlying57
  a53 := Tryd.isAgg57
  z53 := Tryd.sizeOf57
  v53 := Tryd.zeroValue57 }
/-- bits.Len: "Len returns the minimum number of bits required to represent x; the result is 0 for x == 0.": IT RETURNS 'Lib.bitLen x'; the world is as it was. (A uint has 64 bits in the model.) ITS CALLEE bits.Len64 IS MET BY ITS OWN CONTRACT OFF THE SHELF (lay that first). (LAID: no walk: one application.) -/
theorem Tryd.bits_Len (x : Int) (w : World) (h0 : 0 ≤ x) (h1 : x ≤ 18446744073709551615) :
    Calls Tryd.prog 68 #[.int .u64 x] w fun e w' => e = .returned (.int .i64 (Lib.bitLen x.toNat)) ∧ w' = w := Any.bits_Len Tryd.lays125 x w h0 h1
def Tryd.lays134_ren : Go.Shelf.Ren := ⟨fun | 134 => 74 | 129 => 84 | n => n, fun | 53 => 57 | 3 => 3 | 4 => 4 | 46 => 92 | 5 => 5 | 9 => 9 | n => n, fun | n => n⟩
theorem Tryd.lays134 : Go.Proofs.Lays.n134 Tryd.prog Tryd.lays134_ren := {
  mixed := by kernel_rfl
  f129 := Tryd.func84.trans (congrArg some (by kernel_rfl))
  f134 := Tryd.func74.trans (congrArg some (by kernel_rfl))
  t3 := Tryd.underlying3
  a3 := Tryd.isAgg3
  z3 := Tryd.sizeOf3
  v3 := Tryd.zeroValue3
  t4 := Tryd.underlying4
  a4 := Tryd.isAgg4
  z4 := Tryd.sizeOf4
  v4 := Tryd.zeroValue4
  t5 := Tryd.underlying5
  a5 := Tryd.isAgg5
  z5 := Tryd.sizeOf5
  v5 := Tryd.zeroValue5
  t9 := Tryd.underlying9
  a9 := Tryd.isAgg9
  z9 := Tryd.sizeOf9
  v9 := Tryd.zeroValue9
  t46 := Tryd.underlying92
  a46 := Tryd.isAgg92
  z46 := Tryd.sizeOf92
  v46 := Tryd.zeroValue92
  t53 := Tryd.underlying57
  a53 := Tryd.isAgg57
  z53 := Tryd.sizeOf57
  v53 := Tryd.zeroValue57 }
/-- bits.LeadingZeros64: "LeadingZeros64 returns the number of leading zero bits in x; the result is 64 for x == 0.": IT RETURNS '64 - Lib.bitLen x'; the world is as it was. ITS CALLEE bits.Len64 IS MET BY ITS OWN CONTRACT OFF THE SHELF (lay that first): entered in place it sends the kernel out of memory. (LAID: no walk: one application.) -/
theorem Tryd.bits_LeadingZeros64 (x : Int) (w : World) (h0 : 0 ≤ x) (h1 : x ≤ 18446744073709551615) :
    Calls Tryd.prog 74 #[.int .u64 x] w fun e w' => e = .returned (.int .i64 (64 - (Lib.bitLen x.toNat : Int))) ∧ w' = w := Any.bits_LeadingZeros64 Tryd.lays134 x w h0 h1
def Tryd.lays215_ren : Go.Shelf.Ren := ⟨fun | 215 => 69 | n => n, fun | 3 => 3 | 4 => 4 | n => n, fun | n => n⟩
theorem Tryd.lays215 : Go.Proofs.Lays.n215 Tryd.prog Tryd.lays215_ren := {
  mixed := by kernel_rfl
  f215 := Tryd.func69.trans (congrArg some (by kernel_rfl))
  t3 := Tryd.underlying3
  a3 := Tryd.isAgg3
  z3 := Tryd.sizeOf3
  v3 := Tryd.zeroValue3
  t4 := Tryd.underlying4
  a4 := Tryd.isAgg4
  z4 := Tryd.sizeOf4
  v4 := Tryd.zeroValue4 }
open Go.RowKit in
/-- cmp.isNaN at int: 'x != x': false. (LAID: no walk: one application.) -/
theorem Tryd.cmp_isNaN_int (x : Int) (w : World) :
    Calls Tryd.prog 69 #[.int .i64 x] w fun e w' => e = .returned (.bool false) ∧ w' = w := Any.cmp_isNaN_int Tryd.lays215 x w
def Tryd.lays122_ren : Go.Shelf.Ren := ⟨fun | 122 => 58 | 215 => 69 | n => n, fun | 3 => 3 | 4 => 4 | n => n, fun | n => n⟩
theorem Tryd.lays122 : Go.Proofs.Lays.n122 Tryd.prog Tryd.lays122_ren := {
  mixed := by kernel_rfl
  f122 := Tryd.func58.trans (congrArg some (by kernel_rfl))
  f215 := Tryd.func69.trans (congrArg some (by kernel_rfl))
  t3 := Tryd.underlying3
  a3 := Tryd.isAgg3
  z3 := Tryd.sizeOf3
  v3 := Tryd.zeroValue3
  t4 := Tryd.underlying4
  a4 := Tryd.isAgg4
  z4 := Tryd.sizeOf4
  v4 := Tryd.zeroValue4 }
open Go.RowKit in
/-- cmp.Compare at int: "Compare returns -1 if x is less than y, 0 if x equals y, +1 if x is greater than y.": IT RETURNS 'Lib.compareInt x y'; the world is as it was. (LAID: no walk: one application.) -/
theorem Tryd.cmp_Compare_int (x y : Int) (w : World) :
    Calls Tryd.prog 58 #[.int .i64 x, .int .i64 y] w fun e w' => e = .returned (.int .i64 (Lib.compareInt x y)) ∧ w' = w := Any.cmp_Compare_int Tryd.lays122 x y w
def Tryd.lays129_ren : Go.Shelf.Ren := ⟨fun | 129 => 84 | n => n, fun | 53 => 57 | 3 => 3 | 4 => 4 | 46 => 92 | 5 => 5 | 9 => 9 | n => n, fun | n => n⟩
theorem Tryd.lays129 : Go.Proofs.Lays.n129 Tryd.prog Tryd.lays129_ren := {
  mixed := by kernel_rfl
  f129 := Tryd.func84.trans (congrArg some (by kernel_rfl))
  t3 := Tryd.underlying3
  a3 := Tryd.isAgg3
  z3 := Tryd.sizeOf3
  v3 := Tryd.zeroValue3
  t4 := Tryd.underlying4
  a4 := Tryd.isAgg4
  z4 := Tryd.sizeOf4
  v4 := Tryd.zeroValue4
  t5 := Tryd.underlying5
  a5 := Tryd.isAgg5
  z5 := Tryd.sizeOf5
  v5 := Tryd.zeroValue5
  t9 := Tryd.underlying9
  a9 := Tryd.isAgg9
  z9 := Tryd.sizeOf9
  v9 := Tryd.zeroValue9
  t46 := Tryd.underlying92
  a46 := Tryd.isAgg92
  z46 := Tryd.sizeOf92
  v46 := Tryd.zeroValue92
  t53 := Tryd.underlying57
  a53 := Tryd.isAgg57
  z53 := Tryd.sizeOf57
  v53 := Tryd.zeroValue57 }
/-- bits.Len64: "Len64 returns the minimum number of bits required to represent x; the result is 0 for x == 0.": IT RETURNS 'Lib.bitLen x'; the world is as it was. ('h0', 'h1': x is a uint64.) (LAID: no walk: one application.) -/
theorem Tryd.bits_Len64 (x : Int) (w : World) (h0 : 0 ≤ x) (h1 : x ≤ 18446744073709551615) :
    Calls Tryd.prog 84 #[.int .u64 x] w fun e w' => e = .returned (.int .i64 (Lib.bitLen x.toNat)) ∧ w' = w := Any.bits_Len64 Tryd.lays129 x w h0 h1
def Tryd.lays317_ren : Go.Shelf.Ren := ⟨fun | 317 => 85 | n => n, fun | 3 => 3 | 46 => 92 | n => n, fun | n => n⟩
theorem Tryd.lays317 : Go.Proofs.Lays.n317 Tryd.prog Tryd.lays317_ren := {
  mixed := by kernel_rfl
  f317 := Tryd.func85.trans (congrArg some (by kernel_rfl))
  t3 := Tryd.underlying3
  a3 := Tryd.isAgg3
  z3 := Tryd.sizeOf3
  v3 := Tryd.zeroValue3
  t46 := Tryd.underlying92
  a46 := Tryd.isAgg92
  z46 := Tryd.sizeOf92
  v46 := Tryd.zeroValue92 }
open Go.Lib in
/-- internal/strconv.log10Pow2: "log10Pow2(x) returns ⌊log₁₀ 2**x⌋ = ⌊x * log₁₀ 2⌋.": '(x * 78913) >> 18', at an x up to 64 (a length in bits). The world is as it was. (LAID: no walk: one application.) -/
theorem Tryd.internal_strconv_log10Pow2 (x : Nat) (h : x ≤ 64) (w : World) :
    Calls Tryd.prog 85 #[.int .i64 x] w fun e w' => e = .returned (.int .i64 (Lib.l10 x)) ∧ w' = w := Any.internal_strconv_log10Pow2 Tryd.lays317 x h w
def Tryd.lays318_ren : Go.Shelf.Ren := ⟨fun | 318 => 86 | n => n, fun | 3 => 3 | 4 => 4 | n => n, fun | n => n⟩
theorem Tryd.lays318 : Go.Proofs.Lays.n318 Tryd.prog Tryd.lays318_ren := {
  mixed := by kernel_rfl
  f318 := Tryd.func86.trans (congrArg some (by kernel_rfl))
  t3 := Tryd.underlying3
  a3 := Tryd.isAgg3
  z3 := Tryd.sizeOf3
  v3 := Tryd.zeroValue3
  t4 := Tryd.underlying4
  a4 := Tryd.isAgg4
  z4 := Tryd.sizeOf4
  v4 := Tryd.zeroValue4 }
open Go.Lib in
/-- internal/strconv.bool2: "bool2 converts b to an integer: 1 for true, 0 for false." The world is as it was. (LAID: no walk: one application.) -/
theorem Tryd.internal_strconv_bool2_int (b : Bool) (w : World) :
    Calls Tryd.prog 86 #[.bool b] w fun e w' => e = .returned (.int .i64 (if b then 1 else 0)) ∧ w' = w := Any.internal_strconv_bool2_int Tryd.lays318 b w
def Tryd.lays283_ren : Go.Shelf.Ren := ⟨fun | 283 => 70 | n => n, fun | 3 => 3 | 9 => 9 | 4 => 4 | n => n, fun | n => n⟩
theorem Tryd.lays283 : Go.Proofs.Lays.n283 Tryd.prog Tryd.lays283_ren := {
  mixed := by kernel_rfl
  f283 := Tryd.func70.trans (congrArg some (by kernel_rfl))
  t3 := Tryd.underlying3
  a3 := Tryd.isAgg3
  z3 := Tryd.sizeOf3
  v3 := Tryd.zeroValue3
  t4 := Tryd.underlying4
  a4 := Tryd.isAgg4
  z4 := Tryd.sizeOf4
  v4 := Tryd.zeroValue4
  t9 := Tryd.underlying9
  a9 := Tryd.isAgg9
  z9 := Tryd.sizeOf9
  v9 := Tryd.zeroValue9 }
open Go.Lib in
/-- internal/strconv.small: "small returns the string for an i with 0 <= i < nSmalls.": i's decimal numeral. The world is as it was. (LAID: no walk: one application.) -/
theorem Tryd.internal_strconv_small (i : Nat) (h : i < 100) (w : World) :
    Calls Tryd.prog 70 #[.int .i64 i] w fun e w' => e = .returned (.string ⟨(Lib.decDigits i).toArray⟩) ∧ w' = w := Any.internal_strconv_small Tryd.lays283 i h w
def Tryd.laysM284_ren : Go.Shelf.Ren := ⟨fun | 284 => 71 | 129 => 84 | 317 => 85 | 318 => 86 | n => n, fun | 53 => 57 | 3 => 3 | 212 => 115 | 0 => 0 | 4 => 4 | 46 => 92 | 5 => 5 | 9 => 9 | n => n, fun | 17 => 2 | n => n⟩
theorem Tryd.laysM284 : Go.Proofs.LaysM.n284 Tryd.prog Tryd.laysM284_ren := {
  mixed := by kernel_rfl
  f129 := Tryd.func84.trans (congrArg some (by kernel_rfl))
  f284 := Tryd.func71.trans (congrArg some (by kernel_rfl))
  f317 := Tryd.func85.trans (congrArg some (by kernel_rfl))
  f318 := Tryd.func86.trans (congrArg some (by kernel_rfl))
  t0 := Tryd.underlying0
  a0 := Tryd.isAgg0
  z0 := Tryd.sizeOf0
  v0 := Tryd.zeroValue0
  t3 := Tryd.underlying3
  a3 := Tryd.isAgg3
  z3 := Tryd.sizeOf3
  v3 := Tryd.zeroValue3
  t4 := Tryd.underlying4
  a4 := Tryd.isAgg4
  z4 := Tryd.sizeOf4
  v4 := Tryd.zeroValue4
  t5 := Tryd.underlying5
  a5 := Tryd.isAgg5
  z5 := Tryd.sizeOf5
  v5 := Tryd.zeroValue5
  t9 := Tryd.underlying9
  a9 := Tryd.isAgg9
  z9 := Tryd.sizeOf9
  v9 := Tryd.zeroValue9
  t46 := Tryd.underlying92
  a46 := Tryd.isAgg92
  z46 := Tryd.sizeOf92
  v46 := Tryd.zeroValue92
  t53 := Tryd.underlying57
  a53 := Tryd.isAgg57
  z53 := Tryd.sizeOf57
  v53 := Tryd.zeroValue57
  t212 := Tryd.underlying115
  a212 := Tryd.isAgg115
  z212 := Tryd.sizeOf115
  v212 := Tryd.zeroValue115
  g17 := by kernel_rfl
  i0 := by kernel_rfl
  i3 := by kernel_rfl
  i4 := by kernel_rfl
  i5 := by kernel_rfl
  i9 := by kernel_rfl
  i46 := by kernel_rfl
  i53 := by kernel_rfl
  i212 := by kernel_rfl
  m17 := by kernel_rfl }
open Go.Lib in
/-- internal/strconv.numDigits, at a d that is not 0: THE NUMBER OF d's DECIMAL DIGITS. The world is as it was. (LAID: no walk: one application.) -/
theorem Tryd.internal_strconv_numDigits (u : Nat) (h1 : 1 ≤ u) (h2 : u < 18446744073709551616) (w : World) (htab : Lib.TabIs Tryd.prog w "internal/strconv.uint64pow10" .u64 Lib.pow10Tab) :
    Calls Tryd.prog 71 #[.int .u64 u] w fun e w' => e = .returned (.int .i64 (Lib.nDigits u)) ∧ w' = w := Any.internal_strconv_numDigits Tryd.laysM284 u h1 h2 w htab
def Tryd.lays285_ren : Go.Shelf.Ren := ⟨fun | 285 => 72 | n => n, fun | 37 => 98 | 53 => 57 | 3 => 3 | 4 => 4 | 51 => 112 | 9 => 9 | 5 => 5 | 0 => 0 | n => n, fun | n => n⟩
theorem Tryd.lays285 : Go.Proofs.Lays.n285 Tryd.prog Tryd.lays285_ren := {
  mixed := by kernel_rfl
  f285 := Tryd.func72.trans (congrArg some (by kernel_rfl))
  t0 := Tryd.underlying0
  a0 := Tryd.isAgg0
  z0 := Tryd.sizeOf0
  v0 := Tryd.zeroValue0
  t3 := Tryd.underlying3
  a3 := Tryd.isAgg3
  z3 := Tryd.sizeOf3
  v3 := Tryd.zeroValue3
  t4 := Tryd.underlying4
  a4 := Tryd.isAgg4
  z4 := Tryd.sizeOf4
  v4 := Tryd.zeroValue4
  t5 := Tryd.underlying5
  a5 := Tryd.isAgg5
  z5 := Tryd.sizeOf5
  v5 := Tryd.zeroValue5
  t9 := Tryd.underlying9
  a9 := Tryd.isAgg9
  z9 := Tryd.sizeOf9
  v9 := Tryd.zeroValue9
  t37 := Tryd.underlying98
  a37 := Tryd.isAgg98
  z37 := Tryd.sizeOf98
  v37 := Tryd.zeroValue98
  t51 := Tryd.underlying112
  a51 := Tryd.isAgg112
  z51 := Tryd.sizeOf112
  v51 := Tryd.zeroValue112
  t53 := Tryd.underlying57
  a53 := Tryd.isAgg57
  z53 := Tryd.sizeOf57
  v53 := Tryd.zeroValue57 }
open Go.RowKit Go.Sort Go.Lib in
/-- internal/strconv.formatBase10: "formatBase10 formats the decimal representation of u into a. The caller is responsible for ensuring that a is big enough to hold u. If a is too big, leading zeros will be filled in as needed.": THE ROW HOLDS u's DIGITS ('FmtInv .. 0 ..': every place t holds 'dg u (len - 1 - t)'); all else is as it was but for the count of draws. (LAID: no walk: one application.) -/
theorem Tryd.internal_strconv_formatBase10 (blk off cap : Nat) (u : Nat) (d : Array UInt8) (w : World) (hH : Holds (fun (b : UInt8) => Value.int .u8 (b.toNat : Int)) w blk off d) (hu : u < 10 ^ d.size) (hu64 : u < 18446744073709551616) (hsz : d.size < 4611686018427387904) :
    Calls Tryd.prog 72 #[.slice (some ⟨blk, off, none⟩) d.size cap, .int .u64 u] w fun e w' =>
      e = .returned (.tuple #[]) ∧ ∃ (n v' : Nat) (dk : Array UInt8), w' = (putRow (fun (b : UInt8) => Value.int .u8 (b.toNat : Int)) w blk off dk).drewN n ∧ FmtInv d.size u 0 v' dk := Any.internal_strconv_formatBase10 Tryd.lays285 blk off cap u d w hH hu hu64 hsz
def Tryd.laysM246_ren : Go.Shelf.Ren := ⟨fun | 246 => 59 | 283 => 70 | 284 => 71 | 285 => 72 | 286 => 73 | 129 => 84 | 317 => 85 | 318 => 86 | 319 => 87 | 320 => 88 | 337 => 94 | 338 => 95 | n => n, fun | 2 => 2 | 3 => 3 | 9 => 9 | 4 => 4 | 171 => 95 | 0 => 0 | 53 => 57 | 37 => 98 | 5 => 5 | 173 => 99 | 212 => 115 | 51 => 112 | 20 => 20 | 213 => 116 | 46 => 92 | 232 => 126 | 233 => 127 | n => n, fun | 17 => 2 | 18 => 3 | 19 => 4 | n => n⟩
theorem Tryd.laysM246 : Go.Proofs.LaysM.n246 Tryd.prog Tryd.laysM246_ren := {
  mixed := by kernel_rfl
  f129 := Tryd.func84.trans (congrArg some (by kernel_rfl))
  f246 := Tryd.func59.trans (congrArg some (by kernel_rfl))
  f283 := Tryd.func70.trans (congrArg some (by kernel_rfl))
  f284 := Tryd.func71.trans (congrArg some (by kernel_rfl))
  f285 := Tryd.func72.trans (congrArg some (by kernel_rfl))
  f286 := Tryd.func73.trans (congrArg some (by kernel_rfl))
  f317 := Tryd.func85.trans (congrArg some (by kernel_rfl))
  f318 := Tryd.func86.trans (congrArg some (by kernel_rfl))
  f319 := Tryd.func87.trans (congrArg some (by kernel_rfl))
  f320 := Tryd.func88.trans (congrArg some (by kernel_rfl))
  f337 := Tryd.func94.trans (congrArg some (by kernel_rfl))
  f338 := Tryd.func95.trans (congrArg some (by kernel_rfl))
  t0 := Tryd.underlying0
  a0 := Tryd.isAgg0
  z0 := Tryd.sizeOf0
  v0 := Tryd.zeroValue0
  t2 := Tryd.underlying2
  a2 := Tryd.isAgg2
  z2 := Tryd.sizeOf2
  v2 := Tryd.zeroValue2
  t3 := Tryd.underlying3
  a3 := Tryd.isAgg3
  z3 := Tryd.sizeOf3
  v3 := Tryd.zeroValue3
  t4 := Tryd.underlying4
  a4 := Tryd.isAgg4
  z4 := Tryd.sizeOf4
  v4 := Tryd.zeroValue4
  t5 := Tryd.underlying5
  a5 := Tryd.isAgg5
  z5 := Tryd.sizeOf5
  v5 := Tryd.zeroValue5
  t9 := Tryd.underlying9
  a9 := Tryd.isAgg9
  z9 := Tryd.sizeOf9
  v9 := Tryd.zeroValue9
  t20 := Tryd.underlying20
  a20 := Tryd.isAgg20
  z20 := Tryd.sizeOf20
  v20 := Tryd.zeroValue20
  t37 := Tryd.underlying98
  a37 := Tryd.isAgg98
  z37 := Tryd.sizeOf98
  v37 := Tryd.zeroValue98
  t46 := Tryd.underlying92
  a46 := Tryd.isAgg92
  z46 := Tryd.sizeOf92
  v46 := Tryd.zeroValue92
  t51 := Tryd.underlying112
  a51 := Tryd.isAgg112
  z51 := Tryd.sizeOf112
  v51 := Tryd.zeroValue112
  t53 := Tryd.underlying57
  a53 := Tryd.isAgg57
  z53 := Tryd.sizeOf57
  v53 := Tryd.zeroValue57
  t171 := Tryd.underlying95
  a171 := Tryd.isAgg95
  z171 := Tryd.sizeOf95
  v171 := Tryd.zeroValue95
  t173 := Tryd.underlying99
  a173 := Tryd.isAgg99
  z173 := Tryd.sizeOf99
  v173 := Tryd.zeroValue99
  t212 := Tryd.underlying115
  a212 := Tryd.isAgg115
  z212 := Tryd.sizeOf115
  v212 := Tryd.zeroValue115
  t213 := Tryd.underlying116
  a213 := Tryd.isAgg116
  z213 := Tryd.sizeOf116
  t232 := Tryd.underlying126
  a232 := Tryd.isAgg126
  z232 := Tryd.sizeOf126
  v232 := Tryd.zeroValue126
  t233 := Tryd.underlying127
  a233 := Tryd.isAgg127
  z233 := Tryd.sizeOf127
  v233 := Tryd.zeroValue127
  g17 := by kernel_rfl
  g18 := by kernel_rfl
  g19 := by kernel_rfl
  i0 := by kernel_rfl
  i2 := by kernel_rfl
  i3 := by kernel_rfl
  i4 := by kernel_rfl
  i5 := by kernel_rfl
  i9 := by kernel_rfl
  i20 := by kernel_rfl
  i37 := by kernel_rfl
  i46 := by kernel_rfl
  i51 := by kernel_rfl
  i53 := by kernel_rfl
  i171 := by kernel_rfl
  i173 := by kernel_rfl
  i212 := by kernel_rfl
  i232 := by kernel_rfl
  i233 := by kernel_rfl
  m17 := by kernel_rfl
  m18 := by kernel_rfl
  m19 := by kernel_rfl }
open Go.RowKit Go.Sort Go.Lib in
/-- internal/strconv.FormatInt: "FormatInt returns the string representation of i in the given base": AT BASE 10: i's decimal numeral, for every int64. The world behind the call: the world before it, new blocks behind the heap, draws. (LAID: no walk: one application.) -/
theorem Tryd.internal_strconv_FormatInt_10 (n : Int) (h0 : -9223372036854775808 ≤ n) (h1 : n ≤ 9223372036854775807) (w : World) (htab : Lib.TabIs Tryd.prog w "internal/strconv.uint64pow10" .u64 Lib.pow10Tab) :
    Calls Tryd.prog 59 #[.int .i64 n, .int .i64 10] w fun e w' => e = .returned (.string ⟨(Lib.itoa n).toArray⟩) ∧ ∃ k os, w' = grow (w.drewN k) os := Any.internal_strconv_FormatInt_10 Tryd.laysM246 n h0 h1 w htab
def Tryd.lays246_ren : Go.Shelf.Ren := ⟨fun | 246 => 59 | 283 => 70 | 284 => 71 | 285 => 72 | 286 => 73 | 129 => 84 | 317 => 85 | 318 => 86 | 319 => 87 | 320 => 88 | 337 => 94 | 338 => 95 | n => n, fun | 2 => 2 | 3 => 3 | 9 => 9 | 4 => 4 | 171 => 95 | 0 => 0 | 53 => 57 | 37 => 98 | 5 => 5 | 173 => 99 | 212 => 115 | 51 => 112 | 20 => 20 | 213 => 116 | 46 => 92 | 232 => 126 | 233 => 127 | n => n, fun | 17 => 2 | 18 => 3 | 19 => 4 | n => n⟩
theorem Tryd.lays246 : Go.Proofs.Lays.n246 Tryd.prog Tryd.lays246_ren := {
  mixed := by kernel_rfl
  f129 := Tryd.func84.trans (congrArg some (by kernel_rfl))
  f246 := Tryd.func59.trans (congrArg some (by kernel_rfl))
  f283 := Tryd.func70.trans (congrArg some (by kernel_rfl))
  f284 := Tryd.func71.trans (congrArg some (by kernel_rfl))
  f285 := Tryd.func72.trans (congrArg some (by kernel_rfl))
  f286 := Tryd.func73.trans (congrArg some (by kernel_rfl))
  f317 := Tryd.func85.trans (congrArg some (by kernel_rfl))
  f318 := Tryd.func86.trans (congrArg some (by kernel_rfl))
  f319 := Tryd.func87.trans (congrArg some (by kernel_rfl))
  f320 := Tryd.func88.trans (congrArg some (by kernel_rfl))
  f337 := Tryd.func94.trans (congrArg some (by kernel_rfl))
  f338 := Tryd.func95.trans (congrArg some (by kernel_rfl))
  t0 := Tryd.underlying0
  a0 := Tryd.isAgg0
  z0 := Tryd.sizeOf0
  v0 := Tryd.zeroValue0
  t2 := Tryd.underlying2
  a2 := Tryd.isAgg2
  z2 := Tryd.sizeOf2
  v2 := Tryd.zeroValue2
  t3 := Tryd.underlying3
  a3 := Tryd.isAgg3
  z3 := Tryd.sizeOf3
  v3 := Tryd.zeroValue3
  t4 := Tryd.underlying4
  a4 := Tryd.isAgg4
  z4 := Tryd.sizeOf4
  v4 := Tryd.zeroValue4
  t5 := Tryd.underlying5
  a5 := Tryd.isAgg5
  z5 := Tryd.sizeOf5
  v5 := Tryd.zeroValue5
  t9 := Tryd.underlying9
  a9 := Tryd.isAgg9
  z9 := Tryd.sizeOf9
  v9 := Tryd.zeroValue9
  t20 := Tryd.underlying20
  a20 := Tryd.isAgg20
  z20 := Tryd.sizeOf20
  v20 := Tryd.zeroValue20
  t37 := Tryd.underlying98
  a37 := Tryd.isAgg98
  z37 := Tryd.sizeOf98
  v37 := Tryd.zeroValue98
  t46 := Tryd.underlying92
  a46 := Tryd.isAgg92
  z46 := Tryd.sizeOf92
  v46 := Tryd.zeroValue92
  t51 := Tryd.underlying112
  a51 := Tryd.isAgg112
  z51 := Tryd.sizeOf112
  v51 := Tryd.zeroValue112
  t53 := Tryd.underlying57
  a53 := Tryd.isAgg57
  z53 := Tryd.sizeOf57
  v53 := Tryd.zeroValue57
  t171 := Tryd.underlying95
  a171 := Tryd.isAgg95
  z171 := Tryd.sizeOf95
  v171 := Tryd.zeroValue95
  t173 := Tryd.underlying99
  a173 := Tryd.isAgg99
  z173 := Tryd.sizeOf99
  v173 := Tryd.zeroValue99
  t212 := Tryd.underlying115
  a212 := Tryd.isAgg115
  z212 := Tryd.sizeOf115
  v212 := Tryd.zeroValue115
  t213 := Tryd.underlying116
  a213 := Tryd.isAgg116
  z213 := Tryd.sizeOf116
  t232 := Tryd.underlying126
  a232 := Tryd.isAgg126
  z232 := Tryd.sizeOf126
  v232 := Tryd.zeroValue126
  t233 := Tryd.underlying127
  a233 := Tryd.isAgg127
  z233 := Tryd.sizeOf127
  v233 := Tryd.zeroValue127
  g17 := by kernel_rfl
  g18 := by kernel_rfl
  g19 := by kernel_rfl }
open Go.RowKit Go.Sort Go.Lib in
/-- THE ROAD WITHOUT THE TABLE: 0 <= i < 100: two constants are read, nothing is laid: no premise on the world, and the world is as it was. (LAID: no walk: one application.) -/
theorem Tryd.internal_strconv_FormatInt_10_small (i : Nat) (hi : i < 100) (w : World) :
    Calls Tryd.prog 59 #[.int .i64 i, .int .i64 10] w fun e w' => e = .returned (.string ⟨(Lib.decDigits i).toArray⟩) ∧ w' = w := Any.internal_strconv_FormatInt_10_small Tryd.lays246 i hi w
def Tryd.laysM173_ren : Go.Shelf.Ren := ⟨fun | 173 => 45 | 246 => 59 | 283 => 70 | 284 => 71 | 285 => 72 | 286 => 73 | 129 => 84 | 317 => 85 | 318 => 86 | 319 => 87 | 320 => 88 | 337 => 94 | 338 => 95 | n => n, fun | 2 => 2 | 3 => 3 | 9 => 9 | 4 => 4 | 171 => 95 | 0 => 0 | 53 => 57 | 37 => 98 | 5 => 5 | 173 => 99 | 212 => 115 | 51 => 112 | 20 => 20 | 213 => 116 | 46 => 92 | 232 => 126 | 233 => 127 | n => n, fun | 17 => 2 | 18 => 3 | 19 => 4 | n => n⟩
theorem Tryd.laysM173 : Go.Proofs.LaysM.n173 Tryd.prog Tryd.laysM173_ren := {
  mixed := by kernel_rfl
  f129 := Tryd.func84.trans (congrArg some (by kernel_rfl))
  f173 := Tryd.func45.trans (congrArg some (by kernel_rfl))
  f246 := Tryd.func59.trans (congrArg some (by kernel_rfl))
  f283 := Tryd.func70.trans (congrArg some (by kernel_rfl))
  f284 := Tryd.func71.trans (congrArg some (by kernel_rfl))
  f285 := Tryd.func72.trans (congrArg some (by kernel_rfl))
  f286 := Tryd.func73.trans (congrArg some (by kernel_rfl))
  f317 := Tryd.func85.trans (congrArg some (by kernel_rfl))
  f318 := Tryd.func86.trans (congrArg some (by kernel_rfl))
  f319 := Tryd.func87.trans (congrArg some (by kernel_rfl))
  f320 := Tryd.func88.trans (congrArg some (by kernel_rfl))
  f337 := Tryd.func94.trans (congrArg some (by kernel_rfl))
  f338 := Tryd.func95.trans (congrArg some (by kernel_rfl))
  t0 := Tryd.underlying0
  a0 := Tryd.isAgg0
  z0 := Tryd.sizeOf0
  v0 := Tryd.zeroValue0
  t2 := Tryd.underlying2
  a2 := Tryd.isAgg2
  z2 := Tryd.sizeOf2
  v2 := Tryd.zeroValue2
  t3 := Tryd.underlying3
  a3 := Tryd.isAgg3
  z3 := Tryd.sizeOf3
  v3 := Tryd.zeroValue3
  t4 := Tryd.underlying4
  a4 := Tryd.isAgg4
  z4 := Tryd.sizeOf4
  v4 := Tryd.zeroValue4
  t5 := Tryd.underlying5
  a5 := Tryd.isAgg5
  z5 := Tryd.sizeOf5
  v5 := Tryd.zeroValue5
  t9 := Tryd.underlying9
  a9 := Tryd.isAgg9
  z9 := Tryd.sizeOf9
  v9 := Tryd.zeroValue9
  t20 := Tryd.underlying20
  a20 := Tryd.isAgg20
  z20 := Tryd.sizeOf20
  v20 := Tryd.zeroValue20
  t37 := Tryd.underlying98
  a37 := Tryd.isAgg98
  z37 := Tryd.sizeOf98
  v37 := Tryd.zeroValue98
  t46 := Tryd.underlying92
  a46 := Tryd.isAgg92
  z46 := Tryd.sizeOf92
  v46 := Tryd.zeroValue92
  t51 := Tryd.underlying112
  a51 := Tryd.isAgg112
  z51 := Tryd.sizeOf112
  v51 := Tryd.zeroValue112
  t53 := Tryd.underlying57
  a53 := Tryd.isAgg57
  z53 := Tryd.sizeOf57
  v53 := Tryd.zeroValue57
  t171 := Tryd.underlying95
  a171 := Tryd.isAgg95
  z171 := Tryd.sizeOf95
  v171 := Tryd.zeroValue95
  t173 := Tryd.underlying99
  a173 := Tryd.isAgg99
  z173 := Tryd.sizeOf99
  v173 := Tryd.zeroValue99
  t212 := Tryd.underlying115
  a212 := Tryd.isAgg115
  z212 := Tryd.sizeOf115
  v212 := Tryd.zeroValue115
  t213 := Tryd.underlying116
  a213 := Tryd.isAgg116
  z213 := Tryd.sizeOf116
  t232 := Tryd.underlying126
  a232 := Tryd.isAgg126
  z232 := Tryd.sizeOf126
  v232 := Tryd.zeroValue126
  t233 := Tryd.underlying127
  a233 := Tryd.isAgg127
  z233 := Tryd.sizeOf127
  v233 := Tryd.zeroValue127
  g17 := by kernel_rfl
  g18 := by kernel_rfl
  g19 := by kernel_rfl
  i0 := by kernel_rfl
  i2 := by kernel_rfl
  i3 := by kernel_rfl
  i4 := by kernel_rfl
  i5 := by kernel_rfl
  i9 := by kernel_rfl
  i20 := by kernel_rfl
  i37 := by kernel_rfl
  i46 := by kernel_rfl
  i51 := by kernel_rfl
  i53 := by kernel_rfl
  i171 := by kernel_rfl
  i173 := by kernel_rfl
  i212 := by kernel_rfl
  i232 := by kernel_rfl
  i233 := by kernel_rfl
  m17 := by kernel_rfl
  m18 := by kernel_rfl
  m19 := by kernel_rfl }
open Go.RowKit Go.Sort Go.Lib in
/-- strconv.FormatInt: "FormatInt returns the string representation of i in the given base": AT BASE 10: i's decimal numeral, for every int64. (LAID: no walk: one application.) -/
theorem Tryd.strconv_FormatInt_10 (n : Int) (h0 : -9223372036854775808 ≤ n) (h1 : n ≤ 9223372036854775807) (w : World) (htab : Lib.TabIs Tryd.prog w "internal/strconv.uint64pow10" .u64 Lib.pow10Tab) :
    Calls Tryd.prog 45 #[.int .i64 n, .int .i64 10] w fun e w' => e = .returned (.string ⟨(Lib.itoa n).toArray⟩) ∧ ∃ k os, w' = grow (w.drewN k) os := Any.strconv_FormatInt_10 Tryd.laysM173 n h0 h1 w htab
def Tryd.lays173_ren : Go.Shelf.Ren := ⟨fun | 173 => 45 | 246 => 59 | 283 => 70 | 284 => 71 | 285 => 72 | 286 => 73 | 129 => 84 | 317 => 85 | 318 => 86 | 319 => 87 | 320 => 88 | 337 => 94 | 338 => 95 | n => n, fun | 2 => 2 | 3 => 3 | 9 => 9 | 4 => 4 | 171 => 95 | 0 => 0 | 53 => 57 | 37 => 98 | 5 => 5 | 173 => 99 | 212 => 115 | 51 => 112 | 20 => 20 | 213 => 116 | 46 => 92 | 232 => 126 | 233 => 127 | n => n, fun | 17 => 2 | 18 => 3 | 19 => 4 | n => n⟩
theorem Tryd.lays173 : Go.Proofs.Lays.n173 Tryd.prog Tryd.lays173_ren := {
  mixed := by kernel_rfl
  f129 := Tryd.func84.trans (congrArg some (by kernel_rfl))
  f173 := Tryd.func45.trans (congrArg some (by kernel_rfl))
  f246 := Tryd.func59.trans (congrArg some (by kernel_rfl))
  f283 := Tryd.func70.trans (congrArg some (by kernel_rfl))
  f284 := Tryd.func71.trans (congrArg some (by kernel_rfl))
  f285 := Tryd.func72.trans (congrArg some (by kernel_rfl))
  f286 := Tryd.func73.trans (congrArg some (by kernel_rfl))
  f317 := Tryd.func85.trans (congrArg some (by kernel_rfl))
  f318 := Tryd.func86.trans (congrArg some (by kernel_rfl))
  f319 := Tryd.func87.trans (congrArg some (by kernel_rfl))
  f320 := Tryd.func88.trans (congrArg some (by kernel_rfl))
  f337 := Tryd.func94.trans (congrArg some (by kernel_rfl))
  f338 := Tryd.func95.trans (congrArg some (by kernel_rfl))
  t0 := Tryd.underlying0
  a0 := Tryd.isAgg0
  z0 := Tryd.sizeOf0
  v0 := Tryd.zeroValue0
  t2 := Tryd.underlying2
  a2 := Tryd.isAgg2
  z2 := Tryd.sizeOf2
  v2 := Tryd.zeroValue2
  t3 := Tryd.underlying3
  a3 := Tryd.isAgg3
  z3 := Tryd.sizeOf3
  v3 := Tryd.zeroValue3
  t4 := Tryd.underlying4
  a4 := Tryd.isAgg4
  z4 := Tryd.sizeOf4
  v4 := Tryd.zeroValue4
  t5 := Tryd.underlying5
  a5 := Tryd.isAgg5
  z5 := Tryd.sizeOf5
  v5 := Tryd.zeroValue5
  t9 := Tryd.underlying9
  a9 := Tryd.isAgg9
  z9 := Tryd.sizeOf9
  v9 := Tryd.zeroValue9
  t20 := Tryd.underlying20
  a20 := Tryd.isAgg20
  z20 := Tryd.sizeOf20
  v20 := Tryd.zeroValue20
  t37 := Tryd.underlying98
  a37 := Tryd.isAgg98
  z37 := Tryd.sizeOf98
  v37 := Tryd.zeroValue98
  t46 := Tryd.underlying92
  a46 := Tryd.isAgg92
  z46 := Tryd.sizeOf92
  v46 := Tryd.zeroValue92
  t51 := Tryd.underlying112
  a51 := Tryd.isAgg112
  z51 := Tryd.sizeOf112
  v51 := Tryd.zeroValue112
  t53 := Tryd.underlying57
  a53 := Tryd.isAgg57
  z53 := Tryd.sizeOf57
  v53 := Tryd.zeroValue57
  t171 := Tryd.underlying95
  a171 := Tryd.isAgg95
  z171 := Tryd.sizeOf95
  v171 := Tryd.zeroValue95
  t173 := Tryd.underlying99
  a173 := Tryd.isAgg99
  z173 := Tryd.sizeOf99
  v173 := Tryd.zeroValue99
  t212 := Tryd.underlying115
  a212 := Tryd.isAgg115
  z212 := Tryd.sizeOf115
  v212 := Tryd.zeroValue115
  t213 := Tryd.underlying116
  a213 := Tryd.isAgg116
  z213 := Tryd.sizeOf116
  t232 := Tryd.underlying126
  a232 := Tryd.isAgg126
  z232 := Tryd.sizeOf126
  v232 := Tryd.zeroValue126
  t233 := Tryd.underlying127
  a233 := Tryd.isAgg127
  z233 := Tryd.sizeOf127
  v233 := Tryd.zeroValue127
  g17 := by kernel_rfl
  g18 := by kernel_rfl
  g19 := by kernel_rfl }
open Go.RowKit Go.Sort Go.Lib in
/-- THE ROAD WITHOUT THE TABLE: 0 <= i < 100. (LAID: no walk: one application.) -/
theorem Tryd.strconv_FormatInt_10_small (i : Nat) (hi : i < 100) (w : World) :
    Calls Tryd.prog 45 #[.int .i64 i, .int .i64 10] w fun e w' => e = .returned (.string ⟨(Lib.decDigits i).toArray⟩) ∧ w' = w := Any.strconv_FormatInt_10_small Tryd.lays173 i hi w
def Tryd.lays264_ren : Go.Shelf.Ren := ⟨fun | 264 => 60 | n => n, fun | 53 => 57 | 46 => 92 | n => n, fun | n => n⟩
theorem Tryd.lays264 : Go.Proofs.Lays.n264 Tryd.prog Tryd.lays264_ren := {
  mixed := by kernel_rfl
  f264 := Tryd.func60.trans (congrArg some (by kernel_rfl))
  t46 := Tryd.underlying92
  a46 := Tryd.isAgg92
  z46 := Tryd.sizeOf92
  v46 := Tryd.zeroValue92
  t53 := Tryd.underlying57
  a53 := Tryd.isAgg57
  z53 := Tryd.sizeOf57
  v53 := Tryd.zeroValue57 }
open Go.RowKit Go.Lib in
theorem Tryd.bits_Mul64 (x y : Nat) (hx : x < 18446744073709551616) (hy : y < 18446744073709551616) (w : World) :
    Calls Tryd.prog 60 #[.int .u64 x, .int .u64 y] w fun e w' => e = .returned (.tuple #[.int .u64 ((x * y / 18446744073709551616 : Nat) : Int), .int .u64 ((x * y % 18446744073709551616 : Nat) : Int)]) ∧ w' = w := Any.bits_Mul64 Tryd.lays264 x y hx hy w
def Tryd.laysNm237_ren : Go.Shelf.Ren := ⟨fun | 37 => 69 | n => n, fun | 3 => 3 | 4 => 4 | n => n, fun | n => n⟩
theorem Tryd.laysNm237 : Go.Proofs.Lays2.n37 Tryd.prog Tryd.laysNm237_ren := {
  mixed := by kernel_rfl
  f37 := Tryd.func69.trans (congrArg some (by kernel_rfl))
  t3 := Tryd.underlying3
  a3 := Tryd.isAgg3
  z3 := Tryd.sizeOf3
  v3 := Tryd.zeroValue3
  t4 := Tryd.underlying4
  a4 := Tryd.isAgg4
  z4 := Tryd.sizeOf4
  v4 := Tryd.zeroValue4 }
open Go.RowKit Go.Lib in
/-- cmp.isNaN[int]: 'x != x': false. (LAID: no walk: one application.) -/
theorem Tryd.cmp_isNaN_int2 (x : Int) (w : World) :
    Calls Tryd.prog 69 #[.int .i64 x] w fun e w' => e = .returned (.bool false) ∧ w' = w := Any.cmp_isNaN_int2 Tryd.laysNm237 x w
def Tryd.laysSlF20_f75_ren : Go.Shelf.Ren := ⟨fun | 20 => 75 | n => n, fun | 24 => 3 | 22 => 82 | 3 => 3 | 25 => 87 | 4 => 4 | 0 => 0 | n => n, fun | n => n⟩
theorem Tryd.laysSlF20_f75 : Go.Proofs.SlLaysF.n20 Tryd.prog Tryd.laysSlF20_f75_ren := {
  mixed := by kernel_rfl
  f20 := ⟨Tryd.f75.name, by decide, Tryd.func75.trans (congrArg some (by kernel_rfl))⟩
  t0 := Tryd.underlying0
  a0 := Tryd.isAgg0
  z0 := Tryd.sizeOf0
  v0 := Tryd.zeroValue0
  t3 := Tryd.underlying3
  a3 := Tryd.isAgg3
  z3 := Tryd.sizeOf3
  v3 := Tryd.zeroValue3
  t4 := Tryd.underlying4
  a4 := Tryd.isAgg4
  z4 := Tryd.sizeOf4
  v4 := Tryd.zeroValue4
  t22 := Tryd.underlying82
  a22 := Tryd.isAgg82
  z22 := Tryd.sizeOf82
  v22 := Tryd.zeroValue82
  a24 := Tryd.isAgg3
  z24 := Tryd.sizeOf3
  t25 := Tryd.underlying87
  a25 := Tryd.isAgg87
  z25 := Tryd.sizeOf87
  v25 := Tryd.zeroValue87 }
open Go.RowKit Go.Lib Go.Sort in
theorem Tryd.insertionSortCmpFunc_one {α : Type} [Inhabited α] (enc : α → Value) (hO : OneCell enc) (cf : α → α → Int) (g : Nat) (cb : Array Value) (blk off cap a b : Nat) (d : Array α) (w : World) (eg : ∀ args w, (callFunc g args).run Tryd.prog w = .ok (.enter g args) w) (hcmp : CmpReads Tryd.prog g cb enc cf blk off d.size w) (hH : Holds enc w blk off d) (hab : a ≤ b) (hb : b ≤ d.size) (hsz : d.size < 4611686018427387904) :
    Calls Tryd.prog 75 #[.slice (some ⟨blk, off, none⟩) d.size cap, .int .i64 a, .int .i64 b, .func (.func g) #[] cb] w fun e w' =>
      e = .returned (.tuple #[]) ∧ ∃ n, w' = (putRow enc w blk off (Sort.insertionSort (ltOf cf) d a b)).drewN n := Any.insertionSortCmpFunc_one Tryd.laysSlF20_f75 enc hO cf g cb blk off cap a b d w eg hcmp hH hab hb hsz
def Tryd.laysSlF14_f67_ren : Go.Shelf.Ren := ⟨fun | 14 => 67 | 20 => 75 | 21 => 76 | 22 => 77 | 23 => 78 | 24 => 79 | 25 => 80 | 26 => 81 | 27 => 82 | 46 => 89 | 47 => 90 | 48 => 91 | 49 => 92 | 50 => 93 | 15 => 68 | 57 => 96 | 28 => 83 | 29 => 84 | n => n, fun | 24 => 3 | 22 => 82 | 3 => 3 | 25 => 87 | 4 => 4 | 0 => 0 | 46 => 105 | 45 => 104 | 50 => 109 | 66 => 117 | 39 => 92 | 55 => 57 | 70 => 121 | 76 => 123 | 77 => 124 | 53 => 112 | 5 => 5 | 9 => 9 | n => n, fun | n => n⟩
theorem Tryd.laysSlF14_f67 : Go.Proofs.SlLaysF.n14 Tryd.prog Tryd.laysSlF14_f67_ren := {
  mixed := by kernel_rfl
  f14 := ⟨Tryd.f67.name, by decide, Tryd.func67.trans (congrArg some (by kernel_rfl))⟩
  f15 := Tryd.func68.trans (congrArg some (by kernel_rfl))
  f20 := ⟨Tryd.f75.name, by decide, Tryd.func75.trans (congrArg some (by kernel_rfl))⟩
  f21 := ⟨Tryd.f76.name, by decide, Tryd.func76.trans (congrArg some (by kernel_rfl))⟩
  f22 := ⟨Tryd.f77.name, by decide, Tryd.func77.trans (congrArg some (by kernel_rfl))⟩
  f23 := ⟨Tryd.f78.name, by decide, Tryd.func78.trans (congrArg some (by kernel_rfl))⟩
  f24 := ⟨Tryd.f79.name, by decide, Tryd.func79.trans (congrArg some (by kernel_rfl))⟩
  f25 := ⟨Tryd.f80.name, by decide, Tryd.func80.trans (congrArg some (by kernel_rfl))⟩
  f26 := ⟨Tryd.f81.name, by decide, Tryd.func81.trans (congrArg some (by kernel_rfl))⟩
  f27 := ⟨Tryd.f82.name, by decide, Tryd.func82.trans (congrArg some (by kernel_rfl))⟩
  f28 := Tryd.func83.trans (congrArg some (by kernel_rfl))
  f29 := Tryd.func84.trans (congrArg some (by kernel_rfl))
  f46 := ⟨Tryd.f89.name, by decide, Tryd.func89.trans (congrArg some (by kernel_rfl))⟩
  f47 := Tryd.func90.trans (congrArg some (by kernel_rfl))
  f48 := Tryd.func91.trans (congrArg some (by kernel_rfl))
  f49 := ⟨Tryd.f92.name, by decide, Tryd.func92.trans (congrArg some (by kernel_rfl))⟩
  f50 := ⟨Tryd.f93.name, by decide, Tryd.func93.trans (congrArg some (by kernel_rfl))⟩
  f57 := ⟨Tryd.f96.name, by decide, Tryd.func96.trans (congrArg some (by kernel_rfl))⟩
  t0 := Tryd.underlying0
  a0 := Tryd.isAgg0
  z0 := Tryd.sizeOf0
  v0 := Tryd.zeroValue0
  t3 := Tryd.underlying3
  a3 := Tryd.isAgg3
  z3 := Tryd.sizeOf3
  v3 := Tryd.zeroValue3
  t4 := Tryd.underlying4
  a4 := Tryd.isAgg4
  z4 := Tryd.sizeOf4
  v4 := Tryd.zeroValue4
  t5 := Tryd.underlying5
  a5 := Tryd.isAgg5
  z5 := Tryd.sizeOf5
  v5 := Tryd.zeroValue5
  t9 := Tryd.underlying9
  a9 := Tryd.isAgg9
  z9 := Tryd.sizeOf9
  v9 := Tryd.zeroValue9
  t22 := Tryd.underlying82
  a22 := Tryd.isAgg82
  z22 := Tryd.sizeOf82
  v22 := Tryd.zeroValue82
  a24 := Tryd.isAgg3
  z24 := Tryd.sizeOf3
  t25 := Tryd.underlying87
  a25 := Tryd.isAgg87
  z25 := Tryd.sizeOf87
  v25 := Tryd.zeroValue87
  t39 := Tryd.underlying92
  a39 := Tryd.isAgg92
  z39 := Tryd.sizeOf92
  v39 := Tryd.zeroValue92
  t45 := Tryd.underlying104
  a45 := Tryd.isAgg104
  z45 := Tryd.sizeOf104
  v45 := Tryd.zeroValue104
  t46 := Tryd.underlying105
  a46 := Tryd.isAgg105
  z46 := Tryd.sizeOf105
  v46 := Tryd.zeroValue105
  t50 := Tryd.underlying109
  a50 := Tryd.isAgg109
  z50 := Tryd.sizeOf109
  v50 := Tryd.zeroValue109
  t53 := Tryd.underlying112
  a53 := Tryd.isAgg112
  z53 := Tryd.sizeOf112
  v53 := Tryd.zeroValue112
  t55 := Tryd.underlying57
  a55 := Tryd.isAgg57
  z55 := Tryd.sizeOf57
  v55 := Tryd.zeroValue57
  t66 := Tryd.underlying117
  a66 := Tryd.isAgg117
  z66 := Tryd.sizeOf117
  v66 := Tryd.zeroValue117
  t70 := Tryd.underlying121
  a70 := Tryd.isAgg121
  z70 := Tryd.sizeOf121
  v70 := Tryd.zeroValue121
  t76 := Tryd.underlying123
  a76 := Tryd.isAgg123
  z76 := Tryd.sizeOf123
  v76 := Tryd.zeroValue123
  t77 := Tryd.underlying124
  a77 := Tryd.isAgg124
  z77 := Tryd.sizeOf124
  v77 := Tryd.zeroValue124 }
open Go.RowKit Go.Lib Go.Sort in
/-- slices.pdqsortCmpFunc AT A RANGE OF AT MOST 12. (LAID AT THE INSTANCE 'slices.pdqsortCmpFunc[int]': no walk: one application.) -/
theorem Tryd.pdqsortCmpFunc_small {α : Type} [Inhabited α] (enc : α → Value) (hO : OneCell enc) (cf : α → α → Int) (g : Nat) (cb : Array Value) (blk off cap a b : Nat) (lim : Int) (d : Array α) (w : World) (eg : ∀ args w, (callFunc g args).run Tryd.prog w = .ok (.enter g args) w) (hcmp : CmpReads Tryd.prog g cb enc cf blk off d.size w) (hH : Holds enc w blk off d) (hab : a ≤ b) (hb : b ≤ d.size) (hsz : d.size < 4611686018427387904) (h12 : b - a ≤ 12) :
    Calls Tryd.prog 67 #[.slice (some ⟨blk, off, none⟩) d.size cap, .int .i64 a, .int .i64 b, .int .i64 lim, .func (.func g) #[] cb] w fun e w' => e = .returned (.tuple #[]) ∧ ∃ n, w' = (putRow enc w blk off (Sort.insertionSort (ltOf cf) d a b)).drewN n := Any.pdqsortCmpFunc_small Tryd.laysSlF14_f67 enc hO cf g cb blk off cap a b lim d w eg hcmp hH hab hb hsz h12
def Tryd.laysSlF6_f55_ren : Go.Shelf.Ren := ⟨fun | 6 => 55 | 15 => 68 | 14 => 67 | 28 => 83 | 29 => 84 | 20 => 75 | 21 => 76 | 22 => 77 | 23 => 78 | 24 => 79 | 25 => 80 | 26 => 81 | 27 => 82 | 46 => 89 | 47 => 90 | 48 => 91 | 49 => 92 | 50 => 93 | 57 => 96 | n => n, fun | 22 => 82 | 24 => 3 | 25 => 87 | 3 => 3 | 39 => 92 | 0 => 0 | 53 => 112 | 55 => 57 | 4 => 4 | 46 => 105 | 45 => 104 | 50 => 109 | 5 => 5 | 9 => 9 | 66 => 117 | 70 => 121 | 76 => 123 | 77 => 124 | n => n, fun | n => n⟩
theorem Tryd.laysSlF6_f55 : Go.Proofs.SlLaysF.n6 Tryd.prog Tryd.laysSlF6_f55_ren := {
  mixed := by kernel_rfl
  f6 := ⟨Tryd.f55.name, by decide, Tryd.func55.trans (congrArg some (by kernel_rfl))⟩
  f14 := ⟨Tryd.f67.name, by decide, Tryd.func67.trans (congrArg some (by kernel_rfl))⟩
  f15 := Tryd.func68.trans (congrArg some (by kernel_rfl))
  f20 := ⟨Tryd.f75.name, by decide, Tryd.func75.trans (congrArg some (by kernel_rfl))⟩
  f21 := ⟨Tryd.f76.name, by decide, Tryd.func76.trans (congrArg some (by kernel_rfl))⟩
  f22 := ⟨Tryd.f77.name, by decide, Tryd.func77.trans (congrArg some (by kernel_rfl))⟩
  f23 := ⟨Tryd.f78.name, by decide, Tryd.func78.trans (congrArg some (by kernel_rfl))⟩
  f24 := ⟨Tryd.f79.name, by decide, Tryd.func79.trans (congrArg some (by kernel_rfl))⟩
  f25 := ⟨Tryd.f80.name, by decide, Tryd.func80.trans (congrArg some (by kernel_rfl))⟩
  f26 := ⟨Tryd.f81.name, by decide, Tryd.func81.trans (congrArg some (by kernel_rfl))⟩
  f27 := ⟨Tryd.f82.name, by decide, Tryd.func82.trans (congrArg some (by kernel_rfl))⟩
  f28 := Tryd.func83.trans (congrArg some (by kernel_rfl))
  f29 := Tryd.func84.trans (congrArg some (by kernel_rfl))
  f46 := ⟨Tryd.f89.name, by decide, Tryd.func89.trans (congrArg some (by kernel_rfl))⟩
  f47 := Tryd.func90.trans (congrArg some (by kernel_rfl))
  f48 := Tryd.func91.trans (congrArg some (by kernel_rfl))
  f49 := ⟨Tryd.f92.name, by decide, Tryd.func92.trans (congrArg some (by kernel_rfl))⟩
  f50 := ⟨Tryd.f93.name, by decide, Tryd.func93.trans (congrArg some (by kernel_rfl))⟩
  f57 := ⟨Tryd.f96.name, by decide, Tryd.func96.trans (congrArg some (by kernel_rfl))⟩
  t0 := Tryd.underlying0
  a0 := Tryd.isAgg0
  z0 := Tryd.sizeOf0
  v0 := Tryd.zeroValue0
  t3 := Tryd.underlying3
  a3 := Tryd.isAgg3
  z3 := Tryd.sizeOf3
  v3 := Tryd.zeroValue3
  t4 := Tryd.underlying4
  a4 := Tryd.isAgg4
  z4 := Tryd.sizeOf4
  v4 := Tryd.zeroValue4
  t5 := Tryd.underlying5
  a5 := Tryd.isAgg5
  z5 := Tryd.sizeOf5
  v5 := Tryd.zeroValue5
  t9 := Tryd.underlying9
  a9 := Tryd.isAgg9
  z9 := Tryd.sizeOf9
  v9 := Tryd.zeroValue9
  t22 := Tryd.underlying82
  a22 := Tryd.isAgg82
  z22 := Tryd.sizeOf82
  v22 := Tryd.zeroValue82
  a24 := Tryd.isAgg3
  z24 := Tryd.sizeOf3
  t25 := Tryd.underlying87
  a25 := Tryd.isAgg87
  z25 := Tryd.sizeOf87
  v25 := Tryd.zeroValue87
  t39 := Tryd.underlying92
  a39 := Tryd.isAgg92
  z39 := Tryd.sizeOf92
  v39 := Tryd.zeroValue92
  t45 := Tryd.underlying104
  a45 := Tryd.isAgg104
  z45 := Tryd.sizeOf104
  v45 := Tryd.zeroValue104
  t46 := Tryd.underlying105
  a46 := Tryd.isAgg105
  z46 := Tryd.sizeOf105
  v46 := Tryd.zeroValue105
  t50 := Tryd.underlying109
  a50 := Tryd.isAgg109
  z50 := Tryd.sizeOf109
  v50 := Tryd.zeroValue109
  t53 := Tryd.underlying112
  a53 := Tryd.isAgg112
  z53 := Tryd.sizeOf112
  v53 := Tryd.zeroValue112
  t55 := Tryd.underlying57
  a55 := Tryd.isAgg57
  z55 := Tryd.sizeOf57
  v55 := Tryd.zeroValue57
  t66 := Tryd.underlying117
  a66 := Tryd.isAgg117
  z66 := Tryd.sizeOf117
  v66 := Tryd.zeroValue117
  t70 := Tryd.underlying121
  a70 := Tryd.isAgg121
  z70 := Tryd.sizeOf121
  v70 := Tryd.zeroValue121
  t76 := Tryd.underlying123
  a76 := Tryd.isAgg123
  z76 := Tryd.sizeOf123
  v76 := Tryd.zeroValue123
  t77 := Tryd.underlying124
  a77 := Tryd.isAgg124
  z77 := Tryd.sizeOf124
  v77 := Tryd.zeroValue124 }
open Go.RowKit Go.Lib Go.Sort in
/-- slices.SortFunc AT 12 ELEMENTS OR FEWER (0 and 1 among them): THE ROW HOLDS 'Sort.insertionSort (ltOf cf) d 0 d.size'. (LAID AT THE INSTANCE 'slices.SortFunc[[]int,int]': no walk: one application.) -/
theorem Tryd.slices_SortFunc_small {α : Type} [Inhabited α] (enc : α → Value) (hO : OneCell enc) (cf : α → α → Int) (g : Nat) (cb : Array Value) (blk off cap : Nat) (d : Array α) (w : World) (eg : ∀ args w, (callFunc g args).run Tryd.prog w = .ok (.enter g args) w) (hcmp : CmpReads Tryd.prog g cb enc cf blk off d.size w) (hH : Holds enc w blk off d) (h12 : d.size ≤ 12) (hlen : ∀ (n : Nat) (W : World), n ≤ 12 → Calls Tryd.prog 68 #[.int .u64 n] W fun e w' => (∃ l : Int, e = .returned (.int .i64 l)) ∧ w' = W) :
    Calls Tryd.prog 55 #[.slice (some ⟨blk, off, none⟩) d.size cap, .func (.func g) #[] cb] w fun e w' => e = .returned (.tuple #[]) ∧ ∃ n, w' = (putRow enc w blk off (Sort.insertionSort (ltOf cf) d 0 d.size)).drewN n := Any.slices_SortFunc_small Tryd.laysSlF6_f55 enc hO cf g cb blk off cap d w eg hcmp hH h12 hlen
open Go.RowKit Go.Lib Go.Sort in
/-- **THE SAME IN THE DOCUMENTATION's OWN TERMS ("SortFunc sorts the slice x in ascending order as determined by the cmp function. This sort is not guaranteed to be stable. cmp(a, b) should return a negative number when a < b .. SortFunc requires that cmp is a strict weak ordering."): WHERE 'cmp(a, b) < 0' IS A STRICT WEAK ORDER THE ROW HOLDS A PERMUTATION OF WHAT IT HELD, SORTED BY IT.** By a hand of the authors' house's plain theorem 'Sort.insertionSort_holds' (Derived/Sort/LotA.lean). (LAID AT THE INSTANCE 'slices.SortFunc[[]int,int]': no walk: one application.) -/
theorem Tryd.slices_SortFunc_small_sorted {α : Type} [Inhabited α] (enc : α → Value) (hO : OneCell enc) (cf : α → α → Int) (hS : SWO (ltOf cf)) (g : Nat) (cb : Array Value) (blk off cap : Nat) (d : Array α) (w : World) (eg : ∀ args w, (callFunc g args).run Tryd.prog w = .ok (.enter g args) w) (hcmp : CmpReads Tryd.prog g cb enc cf blk off d.size w) (hH : Holds enc w blk off d) (h12 : d.size ≤ 12) (hlen : ∀ (n : Nat) (W : World), n ≤ 12 → Calls Tryd.prog 68 #[.int .u64 n] W fun e w' => (∃ l : Int, e = .returned (.int .i64 l)) ∧ w' = W) :
    Calls Tryd.prog 55 #[.slice (some ⟨blk, off, none⟩) d.size cap, .func (.func g) #[] cb] w fun e w' => e = .returned (.tuple #[]) ∧ ∃ d' n, PermIn 0 d.size d d' ∧ SortedIn (ltOf cf) 0 d.size d' ∧ w' = (putRow enc w blk off d').drewN n := Any.slices_SortFunc_small_sorted Tryd.laysSlF6_f55 enc hO cf hS g cb blk off cap d w eg hcmp hH h12 hlen
def Tryd.laysSlF46_f89_ren : Go.Shelf.Ren := ⟨fun | 46 => 89 | n => n, fun | 24 => 3 | 22 => 82 | 3 => 3 | 25 => 87 | 4 => 4 | 0 => 0 | n => n, fun | n => n⟩
theorem Tryd.laysSlF46_f89 : Go.Proofs.SlLaysF.n46 Tryd.prog Tryd.laysSlF46_f89_ren := {
  mixed := by kernel_rfl
  f46 := ⟨Tryd.f89.name, by decide, Tryd.func89.trans (congrArg some (by kernel_rfl))⟩
  t0 := Tryd.underlying0
  a0 := Tryd.isAgg0
  z0 := Tryd.sizeOf0
  v0 := Tryd.zeroValue0
  t3 := Tryd.underlying3
  a3 := Tryd.isAgg3
  z3 := Tryd.sizeOf3
  v3 := Tryd.zeroValue3
  t4 := Tryd.underlying4
  a4 := Tryd.isAgg4
  z4 := Tryd.sizeOf4
  v4 := Tryd.zeroValue4
  t22 := Tryd.underlying82
  a22 := Tryd.isAgg82
  z22 := Tryd.sizeOf82
  v22 := Tryd.zeroValue82
  a24 := Tryd.isAgg3
  z24 := Tryd.sizeOf3
  t25 := Tryd.underlying87
  a25 := Tryd.isAgg87
  z25 := Tryd.sizeOf87
  v25 := Tryd.zeroValue87 }
open Go.RowKit Go.Lib Go.Sort in
/-- slices.siftDownCmpFunc at elements of one cell: from a world of the sort's to a world of the sort's. (LAID AT THE INSTANCE 'slices.siftDownCmpFunc[int]': no walk: one application.) -/
theorem Tryd.siftDownCmpFunc {α : Type} [Inhabited α] (enc : α → Value) (cf : α → α → Int) (g : Nat) (cb : Array Value) (blk off cap lo hi first : Nat) (d0 d : Array α) (w0 w : World) (eg : ∀ args w, (callFunc g args).run Tryd.prog w = .ok (.enter g args) w) (hcmp : CmpLays1 Tryd.prog g cb enc cf blk off d0.size w0) (R : Row1 enc w0 blk off d0) (hs : d0.size = d.size) (S : SW enc w0 blk off d w) (hlo : lo ≤ hi) (hb : first + hi ≤ d.size) (hsz : d.size < 4611686018427387904) :
    Calls Tryd.prog 89 #[.slice (some ⟨blk, off, none⟩) d.size cap, .int .i64 lo, .int .i64 hi, .int .i64 first, .func (.func g) #[] cb] w fun e w' =>
      e = .returned (.tuple #[]) ∧ SW enc w0 blk off (siftDown (ltOf cf) hi first lo d) w' := Any.siftDownCmpFunc Tryd.laysSlF46_f89 enc cf g cb blk off cap lo hi first d0 d w0 w eg hcmp R hs S hlo hb hsz
def Tryd.laysSlF21_f76_ren : Go.Shelf.Ren := ⟨fun | 21 => 76 | 46 => 89 | n => n, fun | 24 => 3 | 22 => 82 | 3 => 3 | 25 => 87 | 4 => 4 | 0 => 0 | n => n, fun | n => n⟩
theorem Tryd.laysSlF21_f76 : Go.Proofs.SlLaysF.n21 Tryd.prog Tryd.laysSlF21_f76_ren := {
  mixed := by kernel_rfl
  f21 := ⟨Tryd.f76.name, by decide, Tryd.func76.trans (congrArg some (by kernel_rfl))⟩
  f46 := ⟨Tryd.f89.name, by decide, Tryd.func89.trans (congrArg some (by kernel_rfl))⟩
  t0 := Tryd.underlying0
  a0 := Tryd.isAgg0
  z0 := Tryd.sizeOf0
  v0 := Tryd.zeroValue0
  t3 := Tryd.underlying3
  a3 := Tryd.isAgg3
  z3 := Tryd.sizeOf3
  v3 := Tryd.zeroValue3
  t4 := Tryd.underlying4
  a4 := Tryd.isAgg4
  z4 := Tryd.sizeOf4
  v4 := Tryd.zeroValue4
  t22 := Tryd.underlying82
  a22 := Tryd.isAgg82
  z22 := Tryd.sizeOf82
  v22 := Tryd.zeroValue82
  a24 := Tryd.isAgg3
  z24 := Tryd.sizeOf3
  t25 := Tryd.underlying87
  a25 := Tryd.isAgg87
  z25 := Tryd.sizeOf87
  v25 := Tryd.zeroValue87 }
open Go.RowKit Go.Lib Go.Sort in
/-- slices.heapSortCmpFunc at elements of one cell. (LAID AT THE INSTANCE 'slices.heapSortCmpFunc[int]': no walk: one application.) -/
theorem Tryd.heapSortCmpFunc {α : Type} [Inhabited α] (enc : α → Value) (cf : α → α → Int) (g : Nat) (cb : Array Value) (blk off cap a b : Nat) (d0 d : Array α) (w0 w : World) (eg : ∀ args w, (callFunc g args).run Tryd.prog w = .ok (.enter g args) w) (hcmp : CmpLays1 Tryd.prog g cb enc cf blk off d0.size w0) (R : Row1 enc w0 blk off d0) (hs : d0.size = d.size) (S : SW enc w0 blk off d w) (hab : a ≤ b) (hb : b ≤ d.size) (hsz : d.size < 4611686018427387904) :
    Calls Tryd.prog 76 #[.slice (some ⟨blk, off, none⟩) d.size cap, .int .i64 a, .int .i64 b, .func (.func g) #[] cb] w fun e w' =>
      e = .returned (.tuple #[]) ∧ SW enc w0 blk off (heapSort (ltOf cf) d a b) w' := Any.heapSortCmpFunc Tryd.laysSlF21_f76 enc cf g cb blk off cap a b d0 d w0 w eg hcmp R hs S hab hb hsz
open Go.RowKit Go.Lib Go.Sort in
/-- slices.insertionSortCmpFunc at elements of one cell: from a world of the sort's to a world of the sort's. (LAID AT THE INSTANCE 'slices.insertionSortCmpFunc[int]': no walk: one application.) -/
theorem Tryd.insertionSortCmpFunc_s {α : Type} [Inhabited α] (enc : α → Value) (cf : α → α → Int) (g : Nat) (cb : Array Value) (blk off cap a b : Nat) (d0 d : Array α) (w0 w : World) (eg : ∀ args w, (callFunc g args).run Tryd.prog w = .ok (.enter g args) w) (hcmp : CmpLays1 Tryd.prog g cb enc cf blk off d0.size w0) (R : Row1 enc w0 blk off d0) (hs : d0.size = d.size) (S : SW enc w0 blk off d w) (hab : a ≤ b) (hb : b ≤ d.size) (hsz : d.size < 4611686018427387904) :
    Calls Tryd.prog 75 #[.slice (some ⟨blk, off, none⟩) d.size cap, .int .i64 a, .int .i64 b, .func (.func g) #[] cb] w fun e w' => e = .returned (.tuple #[]) ∧ SW enc w0 blk off (Sort.insertionSort (ltOf cf) d a b) w' := Any.insertionSortCmpFunc_s Tryd.laysSlF20_f75 enc cf g cb blk off cap a b d0 d w0 w eg hcmp R hs S hab hb hsz
def Tryd.laysSlF57_f96_ren : Go.Shelf.Ren := ⟨fun | 57 => 96 | n => n, fun | 24 => 3 | 22 => 82 | 3 => 3 | 70 => 121 | 25 => 87 | 0 => 0 | 4 => 4 | n => n, fun | n => n⟩
theorem Tryd.laysSlF57_f96 : Go.Proofs.SlLaysF.n57 Tryd.prog Tryd.laysSlF57_f96_ren := {
  mixed := by kernel_rfl
  f57 := ⟨Tryd.f96.name, by decide, Tryd.func96.trans (congrArg some (by kernel_rfl))⟩
  t0 := Tryd.underlying0
  a0 := Tryd.isAgg0
  z0 := Tryd.sizeOf0
  v0 := Tryd.zeroValue0
  t3 := Tryd.underlying3
  a3 := Tryd.isAgg3
  z3 := Tryd.sizeOf3
  v3 := Tryd.zeroValue3
  t4 := Tryd.underlying4
  a4 := Tryd.isAgg4
  z4 := Tryd.sizeOf4
  v4 := Tryd.zeroValue4
  t22 := Tryd.underlying82
  a22 := Tryd.isAgg82
  z22 := Tryd.sizeOf82
  v22 := Tryd.zeroValue82
  a24 := Tryd.isAgg3
  z24 := Tryd.sizeOf3
  t25 := Tryd.underlying87
  a25 := Tryd.isAgg87
  z25 := Tryd.sizeOf87
  v25 := Tryd.zeroValue87
  t70 := Tryd.underlying121
  a70 := Tryd.isAgg121
  z70 := Tryd.sizeOf121
  v70 := Tryd.zeroValue121 }
open Go.RowKit Go.Lib Go.Sort in
/-- slices.order2CmpFunc at elements of one cell. (LAID AT THE INSTANCE 'slices.order2CmpFunc[int]': no walk: one application.) -/
theorem Tryd.order2CmpFunc {α : Type} [Inhabited α] (enc : α → Value) (cf : α → α → Int) (g : Nat) (cb : Array Value) (blk off cap a b c s : Nat) (d0 d : Array α) (w0 W : World) (eg : ∀ args w, (callFunc g args).run Tryd.prog w = .ok (.enter g args) w) (hcmp : CmpLays1 Tryd.prog g cb enc cf blk off d0.size w0) (R : Row1 enc w0 blk off d0) (hs : d0.size = d.size) (C : Cnt1 enc w0 blk off d c s W) (ha : a < d.size) (hb : b < d.size) (hsz : d.size < 4611686018427387904) (hss : s < 4611686018427387904) :
    Calls Tryd.prog 96 #[.slice (some ⟨blk, off, none⟩) d.size cap, .int .i64 a, .int .i64 b, .pointer (some ⟨c, 0, none⟩), .func (.func g) #[] cb] W fun e w' =>
      e = .returned (.tuple #[.int .i64 (order2 (ltOf cf) d a b s).1, .int .i64 (order2 (ltOf cf) d a b s).2.1]) ∧ Cnt1 enc w0 blk off d c (order2 (ltOf cf) d a b s).2.2 w' := Any.order2CmpFunc Tryd.laysSlF57_f96 enc cf g cb blk off cap a b c s d0 d w0 W eg hcmp R hs C ha hb hsz hss
def Tryd.laysSlF50_f93_ren : Go.Shelf.Ren := ⟨fun | 50 => 93 | 57 => 96 | n => n, fun | 24 => 3 | 22 => 82 | 3 => 3 | 70 => 121 | 25 => 87 | 77 => 124 | 0 => 0 | 4 => 4 | n => n, fun | n => n⟩
theorem Tryd.laysSlF50_f93 : Go.Proofs.SlLaysF.n50 Tryd.prog Tryd.laysSlF50_f93_ren := {
  mixed := by kernel_rfl
  f50 := ⟨Tryd.f93.name, by decide, Tryd.func93.trans (congrArg some (by kernel_rfl))⟩
  f57 := ⟨Tryd.f96.name, by decide, Tryd.func96.trans (congrArg some (by kernel_rfl))⟩
  t0 := Tryd.underlying0
  a0 := Tryd.isAgg0
  z0 := Tryd.sizeOf0
  v0 := Tryd.zeroValue0
  t3 := Tryd.underlying3
  a3 := Tryd.isAgg3
  z3 := Tryd.sizeOf3
  v3 := Tryd.zeroValue3
  t4 := Tryd.underlying4
  a4 := Tryd.isAgg4
  z4 := Tryd.sizeOf4
  v4 := Tryd.zeroValue4
  t22 := Tryd.underlying82
  a22 := Tryd.isAgg82
  z22 := Tryd.sizeOf82
  v22 := Tryd.zeroValue82
  a24 := Tryd.isAgg3
  z24 := Tryd.sizeOf3
  t25 := Tryd.underlying87
  a25 := Tryd.isAgg87
  z25 := Tryd.sizeOf87
  v25 := Tryd.zeroValue87
  t70 := Tryd.underlying121
  a70 := Tryd.isAgg121
  z70 := Tryd.sizeOf121
  v70 := Tryd.zeroValue121
  t77 := Tryd.underlying124
  a77 := Tryd.isAgg124
  z77 := Tryd.sizeOf124
  v77 := Tryd.zeroValue124 }
open Go.RowKit Go.Lib Go.Sort in
/-- slices.medianCmpFunc at elements of one cell. (LAID AT THE INSTANCE 'slices.medianCmpFunc[int]': no walk: one application.) -/
theorem Tryd.medianCmpFunc {α : Type} [Inhabited α] (enc : α → Value) (cf : α → α → Int) (g : Nat) (cb : Array Value) (blk off cap a b c' c s : Nat) (d0 d : Array α) (w0 W : World) (eg : ∀ args w, (callFunc g args).run Tryd.prog w = .ok (.enter g args) w) (hcmp : CmpLays1 Tryd.prog g cb enc cf blk off d0.size w0) (R : Row1 enc w0 blk off d0) (hs : d0.size = d.size) (C : Cnt1 enc w0 blk off d c s W) (ha : a < d.size) (hb : b < d.size) (hc : c' < d.size) (hsz : d.size < 4611686018427387904) (hss : s + 3 < 4611686018427387904) :
    Calls Tryd.prog 93 #[.slice (some ⟨blk, off, none⟩) d.size cap, .int .i64 a, .int .i64 b, .int .i64 c', .pointer (some ⟨c, 0, none⟩), .func (.func g) #[] cb] W fun e w' =>
      e = .returned (.int .i64 (median (ltOf cf) d a b c' s).1) ∧ Cnt1 enc w0 blk off d c (median (ltOf cf) d a b c' s).2 w' := Any.medianCmpFunc Tryd.laysSlF50_f93 enc cf g cb blk off cap a b c' c s d0 d w0 W eg hcmp R hs C ha hb hc hsz hss
def Tryd.laysSlF49_f92_ren : Go.Shelf.Ren := ⟨fun | 49 => 92 | 50 => 93 | 57 => 96 | n => n, fun | 24 => 3 | 22 => 82 | 3 => 3 | 70 => 121 | 25 => 87 | 77 => 124 | 0 => 0 | 4 => 4 | n => n, fun | n => n⟩
theorem Tryd.laysSlF49_f92 : Go.Proofs.SlLaysF.n49 Tryd.prog Tryd.laysSlF49_f92_ren := {
  mixed := by kernel_rfl
  f49 := ⟨Tryd.f92.name, by decide, Tryd.func92.trans (congrArg some (by kernel_rfl))⟩
  f50 := ⟨Tryd.f93.name, by decide, Tryd.func93.trans (congrArg some (by kernel_rfl))⟩
  f57 := ⟨Tryd.f96.name, by decide, Tryd.func96.trans (congrArg some (by kernel_rfl))⟩
  t0 := Tryd.underlying0
  a0 := Tryd.isAgg0
  z0 := Tryd.sizeOf0
  v0 := Tryd.zeroValue0
  t3 := Tryd.underlying3
  a3 := Tryd.isAgg3
  z3 := Tryd.sizeOf3
  v3 := Tryd.zeroValue3
  t4 := Tryd.underlying4
  a4 := Tryd.isAgg4
  z4 := Tryd.sizeOf4
  v4 := Tryd.zeroValue4
  t22 := Tryd.underlying82
  a22 := Tryd.isAgg82
  z22 := Tryd.sizeOf82
  v22 := Tryd.zeroValue82
  a24 := Tryd.isAgg3
  z24 := Tryd.sizeOf3
  t25 := Tryd.underlying87
  a25 := Tryd.isAgg87
  z25 := Tryd.sizeOf87
  v25 := Tryd.zeroValue87
  t70 := Tryd.underlying121
  a70 := Tryd.isAgg121
  z70 := Tryd.sizeOf121
  v70 := Tryd.zeroValue121
  t77 := Tryd.underlying124
  a77 := Tryd.isAgg124
  z77 := Tryd.sizeOf124
  v77 := Tryd.zeroValue124 }
open Go.RowKit Go.Lib Go.Sort in
/-- slices.medianAdjacentCmpFunc at elements of one cell. (LAID AT THE INSTANCE 'slices.medianAdjacentCmpFunc[int]': no walk: one application.) -/
theorem Tryd.medianAdjacentCmpFunc {α : Type} [Inhabited α] (enc : α → Value) (cf : α → α → Int) (g : Nat) (cb : Array Value) (blk off cap a c s : Nat) (d0 d : Array α) (w0 W : World) (eg : ∀ args w, (callFunc g args).run Tryd.prog w = .ok (.enter g args) w) (hcmp : CmpLays1 Tryd.prog g cb enc cf blk off d0.size w0) (R : Row1 enc w0 blk off d0) (hs : d0.size = d.size) (C : Cnt1 enc w0 blk off d c s W) (ha1 : 1 ≤ a) (ha2 : a + 1 < d.size) (hsz : d.size < 4611686018427387904) (hss : s + 3 < 4611686018427387904) :
    Calls Tryd.prog 92 #[.slice (some ⟨blk, off, none⟩) d.size cap, .int .i64 a, .pointer (some ⟨c, 0, none⟩), .func (.func g) #[] cb] W fun e w' =>
      e = .returned (.int .i64 (medianAdjacent (ltOf cf) d a s).1) ∧ Cnt1 enc w0 blk off d c (medianAdjacent (ltOf cf) d a s).2 w' := Any.medianAdjacentCmpFunc Tryd.laysSlF49_f92 enc cf g cb blk off cap a c s d0 d w0 W eg hcmp R hs C ha1 ha2 hsz hss
def Tryd.laysSlF23_f78_ren : Go.Shelf.Ren := ⟨fun | 23 => 78 | 49 => 92 | 50 => 93 | 57 => 96 | n => n, fun | 24 => 3 | 22 => 82 | 3 => 3 | 25 => 87 | 45 => 104 | 0 => 0 | 4 => 4 | 70 => 121 | 77 => 124 | n => n, fun | n => n⟩
theorem Tryd.laysSlF23_f78 : Go.Proofs.SlLaysF.n23 Tryd.prog Tryd.laysSlF23_f78_ren := {
  mixed := by kernel_rfl
  f23 := ⟨Tryd.f78.name, by decide, Tryd.func78.trans (congrArg some (by kernel_rfl))⟩
  f49 := ⟨Tryd.f92.name, by decide, Tryd.func92.trans (congrArg some (by kernel_rfl))⟩
  f50 := ⟨Tryd.f93.name, by decide, Tryd.func93.trans (congrArg some (by kernel_rfl))⟩
  f57 := ⟨Tryd.f96.name, by decide, Tryd.func96.trans (congrArg some (by kernel_rfl))⟩
  t0 := Tryd.underlying0
  a0 := Tryd.isAgg0
  z0 := Tryd.sizeOf0
  v0 := Tryd.zeroValue0
  t3 := Tryd.underlying3
  a3 := Tryd.isAgg3
  z3 := Tryd.sizeOf3
  v3 := Tryd.zeroValue3
  t4 := Tryd.underlying4
  a4 := Tryd.isAgg4
  z4 := Tryd.sizeOf4
  v4 := Tryd.zeroValue4
  t22 := Tryd.underlying82
  a22 := Tryd.isAgg82
  z22 := Tryd.sizeOf82
  v22 := Tryd.zeroValue82
  a24 := Tryd.isAgg3
  z24 := Tryd.sizeOf3
  t25 := Tryd.underlying87
  a25 := Tryd.isAgg87
  z25 := Tryd.sizeOf87
  v25 := Tryd.zeroValue87
  t45 := Tryd.underlying104
  a45 := Tryd.isAgg104
  z45 := Tryd.sizeOf104
  v45 := Tryd.zeroValue104
  t70 := Tryd.underlying121
  a70 := Tryd.isAgg121
  z70 := Tryd.sizeOf121
  v70 := Tryd.zeroValue121
  t77 := Tryd.underlying124
  a77 := Tryd.isAgg124
  z77 := Tryd.sizeOf124
  v77 := Tryd.zeroValue124 }
open Go.RowKit Go.Lib Go.Sort in
/-- slices.choosePivotCmpFunc at elements of one cell: THE LIBRARY's OWN TEXT COMPUTES 'Sort.choosePivot (ltOf cf) d a b'; the row is not turned. (After Derived/Shelf/SlSortFuncK/PivotK.lean, row for row; the counter's world by 'CntK'.) (LAID AT THE INSTANCE 'slices.choosePivotCmpFunc[int]': no walk: one application.) -/
theorem Tryd.choosePivotCmpFunc {α : Type} [Inhabited α] (enc : α → Value) (cf : α → α → Int) (g : Nat) (cb : Array Value) (blk off cap a b : Nat) (d0 d : Array α) (w0 W : World) (eg : ∀ args w, (callFunc g args).run Tryd.prog w = .ok (.enter g args) w) (hcmp : CmpLays1 Tryd.prog g cb enc cf blk off d0.size w0) (R : Row1 enc w0 blk off d0) (hs : d0.size = d.size) (S : SW enc w0 blk off d W) (hab : a < b) (hb : b ≤ d.size) (hsz : d.size < 4611686018427387904) :
    Calls Tryd.prog 78 #[.slice (some ⟨blk, off, none⟩) d.size cap, .int .i64 a, .int .i64 b, .func (.func g) #[] cb] W fun e w' =>
      e = .returned (.tuple #[.int .i64 (choosePivot (ltOf cf) d a b).1, .int .i64 (hintCode (choosePivot (ltOf cf) d a b).2)]) ∧ SW enc w0 blk off d w' := Any.choosePivotCmpFunc Tryd.laysSlF23_f78 enc cf g cb blk off cap a b d0 d w0 W eg hcmp R hs S hab hb hsz
def Tryd.laysSlF24_f79_ren : Go.Shelf.Ren := ⟨fun | 24 => 79 | n => n, fun | 24 => 3 | 22 => 82 | 3 => 3 | 25 => 87 | 4 => 4 | 0 => 0 | n => n, fun | n => n⟩
theorem Tryd.laysSlF24_f79 : Go.Proofs.SlLaysF.n24 Tryd.prog Tryd.laysSlF24_f79_ren := {
  mixed := by kernel_rfl
  f24 := ⟨Tryd.f79.name, by decide, Tryd.func79.trans (congrArg some (by kernel_rfl))⟩
  t0 := Tryd.underlying0
  a0 := Tryd.isAgg0
  z0 := Tryd.sizeOf0
  v0 := Tryd.zeroValue0
  t3 := Tryd.underlying3
  a3 := Tryd.isAgg3
  z3 := Tryd.sizeOf3
  v3 := Tryd.zeroValue3
  t4 := Tryd.underlying4
  a4 := Tryd.isAgg4
  z4 := Tryd.sizeOf4
  v4 := Tryd.zeroValue4
  t22 := Tryd.underlying82
  a22 := Tryd.isAgg82
  z22 := Tryd.sizeOf82
  v22 := Tryd.zeroValue82
  a24 := Tryd.isAgg3
  z24 := Tryd.sizeOf3
  t25 := Tryd.underlying87
  a25 := Tryd.isAgg87
  z25 := Tryd.sizeOf87
  v25 := Tryd.zeroValue87 }
open Go.RowKit Go.Lib Go.Sort in
/-- slices.reverseRangeCmpFunc at elements of one cell: it exchanges and does not compare. (LAID AT THE INSTANCE 'slices.reverseRangeCmpFunc[int]': no walk: one application.) -/
theorem Tryd.reverseRangeCmpFunc {α : Type} [Inhabited α] (enc : α → Value) (g : Nat) (cb : Array Value) (blk off cap a b : Nat) (d0 d : Array α) (w0 w : World) (R : Row1 enc w0 blk off d0) (hs : d0.size = d.size) (S : SW enc w0 blk off d w) (hab : a ≤ b) (hb : b ≤ d.size) (hsz : d.size < 4611686018427387904) :
    Calls Tryd.prog 79 #[.slice (some ⟨blk, off, none⟩) d.size cap, .int .i64 a, .int .i64 b, .func (.func g) #[] cb] w fun e w' => e = .returned (.tuple #[]) ∧ SW enc w0 blk off (reverseRange d a b) w' := Any.reverseRangeCmpFunc Tryd.laysSlF24_f79 enc g cb blk off cap a b d0 d w0 w R hs S hab hb hsz
def Tryd.laysSlF25_f80_ren : Go.Shelf.Ren := ⟨fun | 25 => 80 | n => n, fun | 24 => 3 | 22 => 82 | 3 => 3 | 25 => 87 | 4 => 4 | 0 => 0 | n => n, fun | n => n⟩
theorem Tryd.laysSlF25_f80 : Go.Proofs.SlLaysF.n25 Tryd.prog Tryd.laysSlF25_f80_ren := {
  mixed := by kernel_rfl
  f25 := ⟨Tryd.f80.name, by decide, Tryd.func80.trans (congrArg some (by kernel_rfl))⟩
  t0 := Tryd.underlying0
  a0 := Tryd.isAgg0
  z0 := Tryd.sizeOf0
  v0 := Tryd.zeroValue0
  t3 := Tryd.underlying3
  a3 := Tryd.isAgg3
  z3 := Tryd.sizeOf3
  v3 := Tryd.zeroValue3
  t4 := Tryd.underlying4
  a4 := Tryd.isAgg4
  z4 := Tryd.sizeOf4
  v4 := Tryd.zeroValue4
  t22 := Tryd.underlying82
  a22 := Tryd.isAgg82
  z22 := Tryd.sizeOf82
  v22 := Tryd.zeroValue82
  a24 := Tryd.isAgg3
  z24 := Tryd.sizeOf3
  t25 := Tryd.underlying87
  a25 := Tryd.isAgg87
  z25 := Tryd.sizeOf87
  v25 := Tryd.zeroValue87 }
open Go.RowKit Go.Lib Go.Sort in
/-- slices.partialInsertionSortCmpFunc at elements of one cell. (LAID AT THE INSTANCE 'slices.partialInsertionSortCmpFunc[int]': no walk: one application.) -/
theorem Tryd.partialInsertionSortCmpFunc {α : Type} [Inhabited α] (enc : α → Value) (cf : α → α → Int) (g : Nat) (cb : Array Value) (blk off cap a b : Nat) (d0 d : Array α) (w0 w : World) (eg : ∀ args w, (callFunc g args).run Tryd.prog w = .ok (.enter g args) w) (hcmp : CmpLays1 Tryd.prog g cb enc cf blk off d0.size w0) (R : Row1 enc w0 blk off d0) (hs : d0.size = d.size) (S : SW enc w0 blk off d w) (hab : a < b) (hb : b ≤ d.size) (hsz : d.size < 4611686018427387904) :
    Calls Tryd.prog 80 #[.slice (some ⟨blk, off, none⟩) d.size cap, .int .i64 a, .int .i64 b, .func (.func g) #[] cb] w fun e w' =>
      e = .returned (.bool (Sort.partialInsertionSort (ltOf cf) d a b).2) ∧ SW enc w0 blk off (Sort.partialInsertionSort (ltOf cf) d a b).1 w' := Any.partialInsertionSortCmpFunc Tryd.laysSlF25_f80 enc cf g cb blk off cap a b d0 d w0 w eg hcmp R hs S hab hb hsz
def Tryd.laysSlF26_f81_ren : Go.Shelf.Ren := ⟨fun | 26 => 81 | n => n, fun | 24 => 3 | 22 => 82 | 3 => 3 | 25 => 87 | 0 => 0 | 4 => 4 | n => n, fun | n => n⟩
theorem Tryd.laysSlF26_f81 : Go.Proofs.SlLaysF.n26 Tryd.prog Tryd.laysSlF26_f81_ren := {
  mixed := by kernel_rfl
  f26 := ⟨Tryd.f81.name, by decide, Tryd.func81.trans (congrArg some (by kernel_rfl))⟩
  t0 := Tryd.underlying0
  a0 := Tryd.isAgg0
  z0 := Tryd.sizeOf0
  v0 := Tryd.zeroValue0
  t3 := Tryd.underlying3
  a3 := Tryd.isAgg3
  z3 := Tryd.sizeOf3
  v3 := Tryd.zeroValue3
  t4 := Tryd.underlying4
  a4 := Tryd.isAgg4
  z4 := Tryd.sizeOf4
  v4 := Tryd.zeroValue4
  t22 := Tryd.underlying82
  a22 := Tryd.isAgg82
  z22 := Tryd.sizeOf82
  v22 := Tryd.zeroValue82
  a24 := Tryd.isAgg3
  z24 := Tryd.sizeOf3
  t25 := Tryd.underlying87
  a25 := Tryd.isAgg87
  z25 := Tryd.sizeOf87
  v25 := Tryd.zeroValue87 }
open Go.RowKit Go.Lib Go.Sort in
/-- slices.partitionEqualCmpFunc at elements of one cell. (After Derived/Shelf/SlSortFuncK/PartitionK.lean, row for row.) (LAID AT THE INSTANCE 'slices.partitionEqualCmpFunc[int]': no walk: one application.) -/
theorem Tryd.partitionEqualCmpFunc {α : Type} [Inhabited α] (enc : α → Value) (cf : α → α → Int) (g : Nat) (cb : Array Value) (blk off cap a b pivot : Nat) (d0 d : Array α) (w0 w : World) (eg : ∀ args w, (callFunc g args).run Tryd.prog w = .ok (.enter g args) w) (hcmp : CmpLays1 Tryd.prog g cb enc cf blk off d0.size w0) (R : Row1 enc w0 blk off d0) (hs : d0.size = d.size) (S : SW enc w0 blk off d w) (hap : a ≤ pivot) (hpb : pivot < b) (hb : b ≤ d.size) (hsz : d.size < 4611686018427387904) :
    Calls Tryd.prog 81 #[.slice (some ⟨blk, off, none⟩) d.size cap, .int .i64 a, .int .i64 b, .int .i64 pivot, .func (.func g) #[] cb] w fun e w' =>
      e = .returned (.int .i64 (Sort.partitionEqual (ltOf cf) d a b pivot).1) ∧ SW enc w0 blk off (Sort.partitionEqual (ltOf cf) d a b pivot).2 w' := Any.partitionEqualCmpFunc Tryd.laysSlF26_f81 enc cf g cb blk off cap a b pivot d0 d w0 w eg hcmp R hs S hap hpb hb hsz
def Tryd.laysSlF27_f82_ren : Go.Shelf.Ren := ⟨fun | 27 => 82 | n => n, fun | 24 => 3 | 22 => 82 | 3 => 3 | 25 => 87 | 4 => 4 | 0 => 0 | n => n, fun | n => n⟩
theorem Tryd.laysSlF27_f82 : Go.Proofs.SlLaysF.n27 Tryd.prog Tryd.laysSlF27_f82_ren := {
  mixed := by kernel_rfl
  f27 := ⟨Tryd.f82.name, by decide, Tryd.func82.trans (congrArg some (by kernel_rfl))⟩
  t0 := Tryd.underlying0
  a0 := Tryd.isAgg0
  z0 := Tryd.sizeOf0
  v0 := Tryd.zeroValue0
  t3 := Tryd.underlying3
  a3 := Tryd.isAgg3
  z3 := Tryd.sizeOf3
  v3 := Tryd.zeroValue3
  t4 := Tryd.underlying4
  a4 := Tryd.isAgg4
  z4 := Tryd.sizeOf4
  v4 := Tryd.zeroValue4
  t22 := Tryd.underlying82
  a22 := Tryd.isAgg82
  z22 := Tryd.sizeOf82
  v22 := Tryd.zeroValue82
  a24 := Tryd.isAgg3
  z24 := Tryd.sizeOf3
  t25 := Tryd.underlying87
  a25 := Tryd.isAgg87
  z25 := Tryd.sizeOf87
  v25 := Tryd.zeroValue87 }
open Go.RowKit Go.Lib Go.Sort in
/-- slices.partitionCmpFunc at elements of one cell. (After Derived/Shelf/SlSortFuncK/PartitionK.lean, row for row.) (LAID AT THE INSTANCE 'slices.partitionCmpFunc[int]': no walk: one application.) -/
theorem Tryd.partitionCmpFunc {α : Type} [Inhabited α] (enc : α → Value) (cf : α → α → Int) (g : Nat) (cb : Array Value) (blk off cap a b pivot : Nat) (d0 d : Array α) (w0 w : World) (eg : ∀ args w, (callFunc g args).run Tryd.prog w = .ok (.enter g args) w) (hcmp : CmpLays1 Tryd.prog g cb enc cf blk off d0.size w0) (R : Row1 enc w0 blk off d0) (hs : d0.size = d.size) (S : SW enc w0 blk off d w) (hap : a ≤ pivot) (hpb : pivot < b) (hb : b ≤ d.size) (hsz : d.size < 4611686018427387904) :
    Calls Tryd.prog 82 #[.slice (some ⟨blk, off, none⟩) d.size cap, .int .i64 a, .int .i64 b, .int .i64 pivot, .func (.func g) #[] cb] w fun e w' =>
      e = .returned (.tuple #[.int .i64 (Sort.partition (ltOf cf) d a b pivot).1, .bool (Sort.partition (ltOf cf) d a b pivot).2.1]) ∧ SW enc w0 blk off (Sort.partition (ltOf cf) d a b pivot).2.2 w' := Any.partitionCmpFunc Tryd.laysSlF27_f82 enc cf g cb blk off cap a b pivot d0 d w0 w eg hcmp R hs S hap hpb hb hsz
open Go.RowKit Go.Lib Go.Sort in
/-- slices.pdqsortCmpFunc at elements of one cell, WHOLE. (After Derived/Shelf/SlSortFuncK/PdqK.lean, row for row: the slots and the regions' numbers are this body's.) (LAID AT THE INSTANCE 'slices.pdqsortCmpFunc[int]': no walk: one application.) -/
theorem Tryd.pdqsortCmpFunc_all {α : Type} [Inhabited α] (enc : α → Value) (cf : α → α → Int) (g : Nat) (cb : Array Value) (hO : SWO (ltOf cf)) (blk off cap : Nat) (d0 : Array α) (w0 : World) (eg : ∀ args w, (callFunc g args).run Tryd.prog w = .ok (.enter g args) w) (hcmp : CmpLays1 Tryd.prog g cb enc cf blk off d0.size w0) (R : Row1 enc w0 blk off d0) :
    ∀ (N a b limit : Nat) (d : Array α) (w : World), b - a < N → d0.size = d.size → SW enc w0 blk off d w → a ≤ b → b ≤ d.size → d.size < 4611686018427387904 → limit < 4611686018427387904 → Below (ltOf cf) a b d →
    Calls Tryd.prog 67 #[.slice (some ⟨blk, off, none⟩) d.size cap, .int .i64 a, .int .i64 b, .int .i64 limit, .func (.func g) #[] cb] w fun e w' => e = .returned (.tuple #[]) ∧ SW enc w0 blk off (pdq (ltOf cf) d a b limit true true) w' := Any.pdqsortCmpFunc_all Tryd.laysSlF14_f67 enc cf g cb hO blk off cap d0 w0 eg hcmp R
open Go.RowKit Go.Lib Go.Sort in
/-- **slices.SortFunc: WHAT THE ROW HOLDS, TO THE ELEMENT.** (LAID AT THE INSTANCE 'slices.SortFunc[[]int,int]': no walk: one application.) -/
theorem Tryd.slices_SortFunc_eq {α : Type} [Inhabited α] (enc : α → Value) (h1 : OneCell enc) (cf : α → α → Int) (hO : SWO (ltOf cf)) (g : Nat) (cb : Array Value) (blk off cap : Nat) (d : Array α) (w : World) (eg : ∀ args w, (callFunc g args).run Tryd.prog w = .ok (.enter g args) w) (hcmp : CmpLays1 Tryd.prog g cb enc cf blk off d.size w) (hH : Holds enc w blk off d) (hblk : blk < w.heap.size) (hsz : d.size < 4611686018427387904) :
    Calls Tryd.prog 55 #[.slice (some ⟨blk, off, none⟩) d.size cap, .func (.func g) #[] cb] w fun e w' =>
      e = .returned (.tuple #[]) ∧ ∃ n os, w' = sortWorld enc w blk off n (pdq (ltOf cf) d 0 d.size (Lib.bitLen d.size) true true) os := Any.slices_SortFunc_eq Tryd.laysSlF6_f55 enc h1 cf hO g cb blk off cap d w eg hcmp hH hblk hsz
open Go.RowKit Go.Lib Go.Sort in
/-- **slices.SortFunc, IN THE DOCUMENTATION's OWN TERMS: A PERMUTATION OF WHAT THE ROW HELD, SORTED BY 'cmp(a, b) < 0'.** Which of two equals comes first is left open ("The sort is not guaranteed to be stable"). (LAID AT THE INSTANCE 'slices.SortFunc[[]int,int]': no walk: one application.) -/
theorem Tryd.slices_SortFunc {α : Type} [Inhabited α] (enc : α → Value) (h1 : OneCell enc) (cf : α → α → Int) (hO : SWO (ltOf cf)) (g : Nat) (cb : Array Value) (blk off cap : Nat) (d : Array α) (w : World) (eg : ∀ args w, (callFunc g args).run Tryd.prog w = .ok (.enter g args) w) (hcmp : CmpLays1 Tryd.prog g cb enc cf blk off d.size w) (hH : Holds enc w blk off d) (hblk : blk < w.heap.size) (hsz : d.size < 4611686018427387904) :
    Calls Tryd.prog 55 #[.slice (some ⟨blk, off, none⟩) d.size cap, .func (.func g) #[] cb] w fun e w' =>
      e = .returned (.tuple #[]) ∧ ∃ d' n os, PermIn 0 d.size d d' ∧ SortedIn (ltOf cf) 0 d.size d' ∧ w' = sortWorld enc w blk off n d' os := Any.slices_SortFunc Tryd.laysSlF6_f55 enc h1 cf hO g cb blk off cap d w eg hcmp hH hblk hsz
def Tryd.laysSlF020_f75_ren : Go.Shelf.Ren := ⟨fun | 20 => 75 | n => n, fun | 24 => 3 | 22 => 82 | 3 => 3 | 25 => 87 | 4 => 4 | 0 => 0 | n => n, fun | n => n⟩
theorem Tryd.laysSlF020_f75 : Go.Proofs.SlLaysF0.n20 Tryd.prog Tryd.laysSlF020_f75_ren := {
  mixed := by kernel_rfl
  f20 := ⟨Tryd.f75.name, by decide, Tryd.func75.trans (congrArg some (by kernel_rfl))⟩
  t0 := Tryd.underlying0
  a0 := Tryd.isAgg0
  z0 := Tryd.sizeOf0
  v0 := Tryd.zeroValue0
  t3 := Tryd.underlying3
  a3 := Tryd.isAgg3
  z3 := Tryd.sizeOf3
  v3 := Tryd.zeroValue3
  t4 := Tryd.underlying4
  a4 := Tryd.isAgg4
  z4 := Tryd.sizeOf4
  v4 := Tryd.zeroValue4
  t22 := Tryd.underlying82
  a22 := Tryd.isAgg82
  z22 := Tryd.sizeOf82
  v22 := Tryd.zeroValue82
  t25 := Tryd.underlying87
  a25 := Tryd.isAgg87
  z25 := Tryd.sizeOf87
  v25 := Tryd.zeroValue87 }
open Go.RowKit Go.Lib Go.Sort in
theorem Tryd.insertionSortCmpFunc_none {α : Type} [Inhabited α] (p : Option Addr) (cap : Nat) (fv : Value) (w : World) :
    Calls Tryd.prog 75 #[.slice p 0 cap, .int .i64 0, .int .i64 0, fv] w fun e w' => e = .returned (.tuple #[]) ∧ w' = w := AnyF.insertionSortCmpFunc_none Tryd.laysSlF020_f75 p cap fv w
def Tryd.laysSlF014_f67_ren : Go.Shelf.Ren := ⟨fun | 14 => 67 | 20 => 75 | 21 => 76 | 22 => 77 | 23 => 78 | 24 => 79 | 25 => 80 | 26 => 81 | 27 => 82 | 46 => 89 | 47 => 90 | 48 => 91 | 49 => 92 | 50 => 93 | 15 => 68 | 57 => 96 | 28 => 83 | 29 => 84 | n => n, fun | 24 => 3 | 22 => 82 | 3 => 3 | 25 => 87 | 4 => 4 | 0 => 0 | 46 => 105 | 45 => 104 | 50 => 109 | 66 => 117 | 39 => 92 | 55 => 57 | 70 => 121 | 76 => 123 | 77 => 124 | 53 => 112 | 5 => 5 | 9 => 9 | n => n, fun | n => n⟩
theorem Tryd.laysSlF014_f67 : Go.Proofs.SlLaysF0.n14 Tryd.prog Tryd.laysSlF014_f67_ren := {
  mixed := by kernel_rfl
  f14 := ⟨Tryd.f67.name, by decide, Tryd.func67.trans (congrArg some (by kernel_rfl))⟩
  f15 := Tryd.func68.trans (congrArg some (by kernel_rfl))
  f20 := ⟨Tryd.f75.name, by decide, Tryd.func75.trans (congrArg some (by kernel_rfl))⟩
  f21 := ⟨Tryd.f76.name, by decide, Tryd.func76.trans (congrArg some (by kernel_rfl))⟩
  f22 := ⟨Tryd.f77.name, by decide, Tryd.func77.trans (congrArg some (by kernel_rfl))⟩
  f23 := ⟨Tryd.f78.name, by decide, Tryd.func78.trans (congrArg some (by kernel_rfl))⟩
  f24 := ⟨Tryd.f79.name, by decide, Tryd.func79.trans (congrArg some (by kernel_rfl))⟩
  f25 := ⟨Tryd.f80.name, by decide, Tryd.func80.trans (congrArg some (by kernel_rfl))⟩
  f26 := ⟨Tryd.f81.name, by decide, Tryd.func81.trans (congrArg some (by kernel_rfl))⟩
  f27 := ⟨Tryd.f82.name, by decide, Tryd.func82.trans (congrArg some (by kernel_rfl))⟩
  f28 := Tryd.func83.trans (congrArg some (by kernel_rfl))
  f29 := Tryd.func84.trans (congrArg some (by kernel_rfl))
  f46 := ⟨Tryd.f89.name, by decide, Tryd.func89.trans (congrArg some (by kernel_rfl))⟩
  f47 := Tryd.func90.trans (congrArg some (by kernel_rfl))
  f48 := Tryd.func91.trans (congrArg some (by kernel_rfl))
  f49 := ⟨Tryd.f92.name, by decide, Tryd.func92.trans (congrArg some (by kernel_rfl))⟩
  f50 := ⟨Tryd.f93.name, by decide, Tryd.func93.trans (congrArg some (by kernel_rfl))⟩
  f57 := ⟨Tryd.f96.name, by decide, Tryd.func96.trans (congrArg some (by kernel_rfl))⟩
  t0 := Tryd.underlying0
  a0 := Tryd.isAgg0
  z0 := Tryd.sizeOf0
  v0 := Tryd.zeroValue0
  t3 := Tryd.underlying3
  a3 := Tryd.isAgg3
  z3 := Tryd.sizeOf3
  v3 := Tryd.zeroValue3
  t4 := Tryd.underlying4
  a4 := Tryd.isAgg4
  z4 := Tryd.sizeOf4
  v4 := Tryd.zeroValue4
  t5 := Tryd.underlying5
  a5 := Tryd.isAgg5
  z5 := Tryd.sizeOf5
  v5 := Tryd.zeroValue5
  t9 := Tryd.underlying9
  a9 := Tryd.isAgg9
  z9 := Tryd.sizeOf9
  v9 := Tryd.zeroValue9
  t22 := Tryd.underlying82
  a22 := Tryd.isAgg82
  z22 := Tryd.sizeOf82
  v22 := Tryd.zeroValue82
  t25 := Tryd.underlying87
  a25 := Tryd.isAgg87
  z25 := Tryd.sizeOf87
  v25 := Tryd.zeroValue87
  t39 := Tryd.underlying92
  a39 := Tryd.isAgg92
  z39 := Tryd.sizeOf92
  v39 := Tryd.zeroValue92
  t45 := Tryd.underlying104
  a45 := Tryd.isAgg104
  z45 := Tryd.sizeOf104
  v45 := Tryd.zeroValue104
  t46 := Tryd.underlying105
  a46 := Tryd.isAgg105
  z46 := Tryd.sizeOf105
  v46 := Tryd.zeroValue105
  t50 := Tryd.underlying109
  a50 := Tryd.isAgg109
  z50 := Tryd.sizeOf109
  v50 := Tryd.zeroValue109
  t53 := Tryd.underlying112
  a53 := Tryd.isAgg112
  z53 := Tryd.sizeOf112
  v53 := Tryd.zeroValue112
  t55 := Tryd.underlying57
  a55 := Tryd.isAgg57
  z55 := Tryd.sizeOf57
  v55 := Tryd.zeroValue57
  t66 := Tryd.underlying117
  a66 := Tryd.isAgg117
  z66 := Tryd.sizeOf117
  v66 := Tryd.zeroValue117
  t70 := Tryd.underlying121
  a70 := Tryd.isAgg121
  z70 := Tryd.sizeOf121
  v70 := Tryd.zeroValue121
  t76 := Tryd.underlying123
  a76 := Tryd.isAgg123
  z76 := Tryd.sizeOf123
  v76 := Tryd.zeroValue123
  t77 := Tryd.underlying124
  a77 := Tryd.isAgg124
  z77 := Tryd.sizeOf124
  v77 := Tryd.zeroValue124 }
open Go.RowKit Go.Lib Go.Sort in
theorem Tryd.pdqsortCmpFunc_none {α : Type} [Inhabited α] (p : Option Addr) (cap : Nat) (lim : Int) (fv : Value) (w : World) :
    Calls Tryd.prog 67 #[.slice p 0 cap, .int .i64 0, .int .i64 0, .int .i64 lim, fv] w fun e w' => e = .returned (.tuple #[]) ∧ w' = w := AnyF.pdqsortCmpFunc_none Tryd.laysSlF014_f67 p cap lim fv w
def Tryd.laysSlF06_f55_ren : Go.Shelf.Ren := ⟨fun | 6 => 55 | 15 => 68 | 14 => 67 | 28 => 83 | 29 => 84 | 20 => 75 | 21 => 76 | 22 => 77 | 23 => 78 | 24 => 79 | 25 => 80 | 26 => 81 | 27 => 82 | 46 => 89 | 47 => 90 | 48 => 91 | 49 => 92 | 50 => 93 | 57 => 96 | n => n, fun | 22 => 82 | 24 => 3 | 25 => 87 | 3 => 3 | 39 => 92 | 0 => 0 | 53 => 112 | 55 => 57 | 4 => 4 | 46 => 105 | 45 => 104 | 50 => 109 | 5 => 5 | 9 => 9 | 66 => 117 | 70 => 121 | 76 => 123 | 77 => 124 | n => n, fun | n => n⟩
theorem Tryd.laysSlF06_f55 : Go.Proofs.SlLaysF0.n6 Tryd.prog Tryd.laysSlF06_f55_ren := {
  mixed := by kernel_rfl
  f6 := ⟨Tryd.f55.name, by decide, Tryd.func55.trans (congrArg some (by kernel_rfl))⟩
  f14 := ⟨Tryd.f67.name, by decide, Tryd.func67.trans (congrArg some (by kernel_rfl))⟩
  f15 := Tryd.func68.trans (congrArg some (by kernel_rfl))
  f20 := ⟨Tryd.f75.name, by decide, Tryd.func75.trans (congrArg some (by kernel_rfl))⟩
  f21 := ⟨Tryd.f76.name, by decide, Tryd.func76.trans (congrArg some (by kernel_rfl))⟩
  f22 := ⟨Tryd.f77.name, by decide, Tryd.func77.trans (congrArg some (by kernel_rfl))⟩
  f23 := ⟨Tryd.f78.name, by decide, Tryd.func78.trans (congrArg some (by kernel_rfl))⟩
  f24 := ⟨Tryd.f79.name, by decide, Tryd.func79.trans (congrArg some (by kernel_rfl))⟩
  f25 := ⟨Tryd.f80.name, by decide, Tryd.func80.trans (congrArg some (by kernel_rfl))⟩
  f26 := ⟨Tryd.f81.name, by decide, Tryd.func81.trans (congrArg some (by kernel_rfl))⟩
  f27 := ⟨Tryd.f82.name, by decide, Tryd.func82.trans (congrArg some (by kernel_rfl))⟩
  f28 := Tryd.func83.trans (congrArg some (by kernel_rfl))
  f29 := Tryd.func84.trans (congrArg some (by kernel_rfl))
  f46 := ⟨Tryd.f89.name, by decide, Tryd.func89.trans (congrArg some (by kernel_rfl))⟩
  f47 := Tryd.func90.trans (congrArg some (by kernel_rfl))
  f48 := Tryd.func91.trans (congrArg some (by kernel_rfl))
  f49 := ⟨Tryd.f92.name, by decide, Tryd.func92.trans (congrArg some (by kernel_rfl))⟩
  f50 := ⟨Tryd.f93.name, by decide, Tryd.func93.trans (congrArg some (by kernel_rfl))⟩
  f57 := ⟨Tryd.f96.name, by decide, Tryd.func96.trans (congrArg some (by kernel_rfl))⟩
  t0 := Tryd.underlying0
  a0 := Tryd.isAgg0
  z0 := Tryd.sizeOf0
  v0 := Tryd.zeroValue0
  t3 := Tryd.underlying3
  a3 := Tryd.isAgg3
  z3 := Tryd.sizeOf3
  v3 := Tryd.zeroValue3
  t4 := Tryd.underlying4
  a4 := Tryd.isAgg4
  z4 := Tryd.sizeOf4
  v4 := Tryd.zeroValue4
  t5 := Tryd.underlying5
  a5 := Tryd.isAgg5
  z5 := Tryd.sizeOf5
  v5 := Tryd.zeroValue5
  t9 := Tryd.underlying9
  a9 := Tryd.isAgg9
  z9 := Tryd.sizeOf9
  v9 := Tryd.zeroValue9
  t22 := Tryd.underlying82
  a22 := Tryd.isAgg82
  z22 := Tryd.sizeOf82
  v22 := Tryd.zeroValue82
  t25 := Tryd.underlying87
  a25 := Tryd.isAgg87
  z25 := Tryd.sizeOf87
  v25 := Tryd.zeroValue87
  t39 := Tryd.underlying92
  a39 := Tryd.isAgg92
  z39 := Tryd.sizeOf92
  v39 := Tryd.zeroValue92
  t45 := Tryd.underlying104
  a45 := Tryd.isAgg104
  z45 := Tryd.sizeOf104
  v45 := Tryd.zeroValue104
  t46 := Tryd.underlying105
  a46 := Tryd.isAgg105
  z46 := Tryd.sizeOf105
  v46 := Tryd.zeroValue105
  t50 := Tryd.underlying109
  a50 := Tryd.isAgg109
  z50 := Tryd.sizeOf109
  v50 := Tryd.zeroValue109
  t53 := Tryd.underlying112
  a53 := Tryd.isAgg112
  z53 := Tryd.sizeOf112
  v53 := Tryd.zeroValue112
  t55 := Tryd.underlying57
  a55 := Tryd.isAgg57
  z55 := Tryd.sizeOf57
  v55 := Tryd.zeroValue57
  t66 := Tryd.underlying117
  a66 := Tryd.isAgg117
  z66 := Tryd.sizeOf117
  v66 := Tryd.zeroValue117
  t70 := Tryd.underlying121
  a70 := Tryd.isAgg121
  z70 := Tryd.sizeOf121
  v70 := Tryd.zeroValue121
  t76 := Tryd.underlying123
  a76 := Tryd.isAgg123
  z76 := Tryd.sizeOf123
  v76 := Tryd.zeroValue123
  t77 := Tryd.underlying124
  a77 := Tryd.isAgg124
  z77 := Tryd.sizeOf124
  v77 := Tryd.zeroValue124 }
open Go.RowKit Go.Lib Go.Sort in
/-- **slices.SortFunc AT NO ELEMENT, A nil SLICE TOO: nothing turns.** (LAID AT THE INSTANCE 'slices.SortFunc[[]int,int]': no walk: one application.) -/
theorem Tryd.slices_SortFunc_none {α : Type} [Inhabited α] (p : Option Addr) (cap : Nat) (fv : Value) (w : World) :
    Calls Tryd.prog 55 #[.slice p 0 cap, fv] w fun e w' => e = .returned (.tuple #[]) ∧ w' = w := AnyF.slices_SortFunc_none Tryd.laysSlF06_f55 p cap fv w
open Go.RowKit Go.Lib Go.Sort in
/-- **slices.SortFunc AT ONE CELL, UNDER A 'cmp' THAT PARTS WHATEVER TWO THAT ARE NOT ONE: THE ROW HOLDS core's 'mergeSort'.** (LAID AT THE INSTANCE 'slices.SortFunc[[]int,int]': no walk: one application.) -/
theorem Tryd.slices_SortFunc_total {α : Type} [Inhabited α] (enc : α → Value) (h1 : OneCell enc) (cf : α → α → Int) (hO : SWO (ltOf cf)) (g : Nat) (cb : Array Value) (blk off cap : Nat) (d : Array α) (w : World) (eg : ∀ args w, (callFunc g args).run Tryd.prog w = .ok (.enter g args) w) (hcmp : CmpLays1 Tryd.prog g cb enc cf blk off d.size w) (hH : Holds enc w blk off d) (hblk : blk < w.heap.size) (hsz : d.size < 4611686018427387904) (hT : ∀ x y, (ltOf cf) x y = false → (ltOf cf) y x = false → x = y) :
    Calls Tryd.prog 55 #[.slice (some ⟨blk, off, none⟩) d.size cap, .func (.func g) #[] cb] w fun e w' =>
      e = .returned (.tuple #[]) ∧ ∃ n os, w' = sortWorld enc w blk off n (d.toList.mergeSort fun x y => !(ltOf cf) y x).toArray os := Any.slices_SortFunc_total Tryd.laysSlF6_f55 enc h1 cf hO g cb blk off cap d w eg hcmp hH hblk hsz hT
end Go.Proofs
