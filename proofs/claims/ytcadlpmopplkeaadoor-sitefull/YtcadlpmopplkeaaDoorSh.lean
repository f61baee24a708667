/- The library functions that are called, by their contracts. -/
import Derived.Shelf.Strings.Trim
import Derived.Shelf.Small.Utf8
import Derived.Shelf.Small.Strs
import Derived.Shelf.Small.Wraps
import Derived.Shelf.Strconv.Itoa0
import Derived.Shelf.Strconv.Itoa1
import Derived.Shelf.LaysM
import Derived.Shelf.Strconv.Itoa2
import Derived.Shelf.Strconv.Itoa3
import Derived.Shelf.Strings.Search1
import Derived.Shelf.Strings.Prefix
import Derived.Shelf.Unicode.Decode
import Derived.Shelf.Strings.Runes
import Derived.Shelf.Strings.IndexAny
import Derived.Shelf.Strings.AsciiSet
import Derived.Shelf.Strings.IndexAnyAll
import Derived.Shelf.Unicode.DecodeSlow
import Derived.Shelf.Unicode.DecodeAny
import Derived.Shelf.Unicode.DecodeLast
import Derived.Test.YtcadlpmopplkeaaDoorProg
namespace Go.Proofs.YtcadlpmopplkeaaDoor
open Go.Shelf
def Tryd.lays231_ren : Go.Shelf.Ren := ⟨fun | 231 => 101 | n => n, fun | 9 => 9 | 5 => 5 | 3 => 3 | 4 => 4 | n => n, fun | n => n⟩
theorem Tryd.lays231 : Go.Proofs.Lays.n231 Tryd.prog Tryd.lays231_ren := {
  mixed := by kernel_rfl
  f231 := Tryd.func101.trans (congrArg some (by kernel_rfl))
  t3 := Tryd.underlying3
  a3 := Tryd.isAgg3
  z3 := Tryd.sizeOf3
  v3 := Tryd.zeroValue3
  t4 := Tryd.underlying4
  a4 := Tryd.isAgg4
  z4 := Tryd.sizeOf4
  v4 := Tryd.zeroValue4
  t5 := Tryd.underlying5
  a5 := Tryd.isAgg5
  z5 := Tryd.sizeOf5
  v5 := Tryd.zeroValue5
  t9 := Tryd.underlying9
  a9 := Tryd.isAgg9
  z9 := Tryd.sizeOf9
  v9 := Tryd.zeroValue9 }
open Go.RowKit in
theorem Tryd.strings_trimLeftByte (s : ByteArray) (c : UInt8) (w : World) :
    Calls Tryd.prog 101 #[.string s, .int .u8 c.toNat] w fun e w' => e = .returned (.string ⟨(Lib.trimLeftB s.data.toList c).toArray⟩) ∧ w' = w := Any.strings_trimLeftByte Tryd.lays231 s c w
def Tryd.lays232_ren : Go.Shelf.Ren := ⟨fun | 232 => 102 | n => n, fun | 9 => 9 | 5 => 5 | 3 => 3 | 4 => 4 | n => n, fun | n => n⟩
theorem Tryd.lays232 : Go.Proofs.Lays.n232 Tryd.prog Tryd.lays232_ren := {
  mixed := by kernel_rfl
  f232 := Tryd.func102.trans (congrArg some (by kernel_rfl))
  t3 := Tryd.underlying3
  a3 := Tryd.isAgg3
  z3 := Tryd.sizeOf3
  v3 := Tryd.zeroValue3
  t4 := Tryd.underlying4
  a4 := Tryd.isAgg4
  z4 := Tryd.sizeOf4
  v4 := Tryd.zeroValue4
  t5 := Tryd.underlying5
  a5 := Tryd.isAgg5
  z5 := Tryd.sizeOf5
  v5 := Tryd.zeroValue5
  t9 := Tryd.underlying9
  a9 := Tryd.isAgg9
  z9 := Tryd.sizeOf9
  v9 := Tryd.zeroValue9 }
open Go.RowKit in
theorem Tryd.strings_trimRightByte (s : ByteArray) (c : UInt8) (w : World) (hs : s.size ≤ 9223372036854775807) :
    Calls Tryd.prog 102 #[.string s, .int .u8 c.toNat] w fun e w' => e = .returned (.string ⟨(Lib.trimRightB s.data.toList c).toArray⟩) ∧ w' = w := Any.strings_trimRightByte Tryd.lays232 s c w hs
def Tryd.lays160_ren : Go.Shelf.Ren := ⟨fun | 160 => 90 | 232 => 102 | 231 => 101 | 227 => 103 | 234 => 105 | 233 => 104 | 236 => 107 | 235 => 106 | 228 => 111 | 271 => 113 | 151 => 99 | 197 => 112 | 120 => 120 | 152 => 109 | 260 => 119 | 137 => 115 | 119 => 116 | 224 => 117 | 225 => 118 | 217 => 122 | 266 => 123 | n => n, fun | 9 => 9 | 4 => 4 | 3 => 3 | 5 => 5 | 117 => 149 | 116 => 148 | 0 => 0 | 124 => 152 | 21 => 21 | 105 => 159 | 46 => 122 | 119 => 162 | 139 => 165 | 138 => 164 | n => n, fun | 3 => 4 | 4 => 5 | n => n⟩
theorem Tryd.lays160 : Go.Proofs.Lays.n160 Tryd.prog Tryd.lays160_ren := {
  mixed := by kernel_rfl
  f119 := Tryd.func116.trans (congrArg some (by kernel_rfl))
  f120 := Tryd.func120.trans (congrArg some (by kernel_rfl))
  f137 := Tryd.func115.trans (congrArg some (by kernel_rfl))
  f151 := Tryd.func99.trans (congrArg some (by kernel_rfl))
  f152 := Tryd.func109.trans (congrArg some (by kernel_rfl))
  f160 := Tryd.func90.trans (congrArg some (by kernel_rfl))
  f197 := Tryd.func112.trans (congrArg some (by kernel_rfl))
  f217 := Tryd.func122.trans (congrArg some (by kernel_rfl))
  f224 := Tryd.func117.trans (congrArg some (by kernel_rfl))
  f225 := Tryd.func118.trans (congrArg some (by kernel_rfl))
  f227 := Tryd.func103.trans (congrArg some (by kernel_rfl))
  f228 := Tryd.func111.trans (congrArg some (by kernel_rfl))
  f231 := Tryd.func101.trans (congrArg some (by kernel_rfl))
  f232 := Tryd.func102.trans (congrArg some (by kernel_rfl))
  f233 := Tryd.func104.trans (congrArg some (by kernel_rfl))
  f234 := Tryd.func105.trans (congrArg some (by kernel_rfl))
  f235 := Tryd.func106.trans (congrArg some (by kernel_rfl))
  f236 := Tryd.func107.trans (congrArg some (by kernel_rfl))
  f260 := Tryd.func119.trans (congrArg some (by kernel_rfl))
  f266 := Tryd.func123.trans (congrArg some (by kernel_rfl))
  f271 := Tryd.func113.trans (congrArg some (by kernel_rfl))
  t0 := Tryd.underlying0
  a0 := Tryd.isAgg0
  z0 := Tryd.sizeOf0
  v0 := Tryd.zeroValue0
  t3 := Tryd.underlying3
  a3 := Tryd.isAgg3
  z3 := Tryd.sizeOf3
  v3 := Tryd.zeroValue3
  t4 := Tryd.underlying4
  a4 := Tryd.isAgg4
  z4 := Tryd.sizeOf4
  v4 := Tryd.zeroValue4
  t5 := Tryd.underlying5
  a5 := Tryd.isAgg5
  z5 := Tryd.sizeOf5
  v5 := Tryd.zeroValue5
  t9 := Tryd.underlying9
  a9 := Tryd.isAgg9
  z9 := Tryd.sizeOf9
  v9 := Tryd.zeroValue9
  t21 := Tryd.underlying21
  a21 := Tryd.isAgg21
  z21 := Tryd.sizeOf21
  v21 := Tryd.zeroValue21
  t46 := Tryd.underlying122
  a46 := Tryd.isAgg122
  z46 := Tryd.sizeOf122
  v46 := Tryd.zeroValue122
  t105 := Tryd.underlying159
  a105 := Tryd.isAgg159
  z105 := Tryd.sizeOf159
  v105 := Tryd.zeroValue159
  t116 := Tryd.underlying148
  a116 := Tryd.isAgg148
  z116 := Tryd.sizeOf148
  t117 := Tryd.underlying149
  a117 := Tryd.isAgg149
  z117 := Tryd.sizeOf149
  v117 := Tryd.zeroValue149
  t119 := Tryd.underlying162
  a119 := Tryd.isAgg162
  z119 := Tryd.sizeOf162
  t124 := Tryd.underlying152
  a124 := Tryd.isAgg152
  z124 := Tryd.sizeOf152
  v124 := Tryd.zeroValue152
  t138 := Tryd.underlying164
  a138 := Tryd.isAgg164
  z138 := Tryd.sizeOf164
  v138 := Tryd.zeroValue164
  t139 := Tryd.underlying165
  a139 := Tryd.isAgg165
  z139 := Tryd.sizeOf165
  v139 := Tryd.zeroValue165
  g3 := by kernel_rfl
  g4 := by kernel_rfl }
open Go.RowKit in
theorem Tryd.strings_Trim_one (s : ByteArray) (c : UInt8) (hc : c.toNat < 128) (w : World) (hs : s.size ≤ 9223372036854775807) :
    Calls Tryd.prog 90 #[.string s, .string ⟨#[c]⟩] w fun e w' => e = .returned (.string ⟨(Lib.trimB s.data.toList c).toArray⟩) ∧ (w' = w ∨ w' = w.drew) := Any.strings_Trim_one Tryd.lays160 s c hc w hs
def Tryd.lays119_ren : Go.Shelf.Ren := ⟨fun | 119 => 116 | n => n, fun | 21 => 21 | 4 => 4 | n => n, fun | n => n⟩
theorem Tryd.lays119 : Go.Proofs.Lays.n119 Tryd.prog Tryd.lays119_ren := {
  mixed := by kernel_rfl
  f119 := Tryd.func116.trans (congrArg some (by kernel_rfl))
  t4 := Tryd.underlying4
  a4 := Tryd.isAgg4
  z4 := Tryd.sizeOf4
  v4 := Tryd.zeroValue4
  t21 := Tryd.underlying21
  a21 := Tryd.isAgg21
  z21 := Tryd.sizeOf21
  v21 := Tryd.zeroValue21 }
theorem Tryd.utf8_ValidRune (r : Int) (w : World) :
    Calls Tryd.prog 116 #[.int .i32 r] w fun e w' => e = .returned (.bool (Lib.validRune r)) ∧ w' = w := Any.utf8_ValidRune Tryd.lays119 r w
def Tryd.lays120_ren : Go.Shelf.Ren := ⟨fun | 120 => 120 | n => n, fun | 5 => 5 | 4 => 4 | n => n, fun | n => n⟩
theorem Tryd.lays120 : Go.Proofs.Lays.n120 Tryd.prog Tryd.lays120_ren := {
  mixed := by kernel_rfl
  f120 := Tryd.func120.trans (congrArg some (by kernel_rfl))
  t4 := Tryd.underlying4
  a4 := Tryd.isAgg4
  z4 := Tryd.sizeOf4
  v4 := Tryd.zeroValue4
  t5 := Tryd.underlying5
  a5 := Tryd.isAgg5
  z5 := Tryd.sizeOf5
  v5 := Tryd.zeroValue5 }
theorem Tryd.utf8_RuneStart (b : Int) (w : World) (h0 : 0 ≤ b) (h1 : b < 256) :
    Calls Tryd.prog 120 #[.int .u8 b] w fun e w' => e = .returned (.bool (Lib.runeStart b)) ∧ w' = w := Any.utf8_RuneStart Tryd.lays120 b w h0 h1
def Tryd.lays137_ren : Go.Shelf.Ren := ⟨fun | 137 => 115 | 217 => 122 | 266 => 123 | n => n, fun | 9 => 9 | 5 => 5 | 3 => 3 | n => n, fun | n => n⟩
theorem Tryd.lays137 : Go.Proofs.Lays.n137 Tryd.prog Tryd.lays137_ren := {
  mixed := by kernel_rfl
  f137 := Tryd.func115.trans (congrArg some (by kernel_rfl))
  f217 := Tryd.func122.trans (congrArg some (by kernel_rfl))
  f266 := Tryd.func123.trans (congrArg some (by kernel_rfl))
  t3 := Tryd.underlying3
  a3 := Tryd.isAgg3
  z3 := Tryd.sizeOf3
  v3 := Tryd.zeroValue3
  t5 := Tryd.underlying5
  a5 := Tryd.isAgg5
  z5 := Tryd.sizeOf5
  v5 := Tryd.zeroValue5
  t9 := Tryd.underlying9
  a9 := Tryd.isAgg9
  z9 := Tryd.sizeOf9
  v9 := Tryd.zeroValue9 }
open Go.RowKit in
theorem Tryd.strings_IndexByte (s : ByteArray) (c : Int) (w : World) :
    Calls Tryd.prog 115 #[.string s, .int .u8 c] w fun e w' => e = .returned (.int .i64 (Lib.indexByte s.data.toList c.toNat.toUInt8)) ∧ w' = w := Any.strings_IndexByte Tryd.lays137 s c w
def Tryd.lays210_ren : Go.Shelf.Ren := ⟨fun | 210 => 114 | 206 => 121 | n => n, fun | 9 => 9 | 4 => 4 | 3 => 3 | n => n, fun | n => n⟩
theorem Tryd.lays210 : Go.Proofs.Lays.n210 Tryd.prog Tryd.lays210_ren := {
  mixed := by kernel_rfl
  f206 := Tryd.func121.trans (congrArg some (by kernel_rfl))
  f210 := Tryd.func114.trans (congrArg some (by kernel_rfl))
  t3 := Tryd.underlying3
  a3 := Tryd.isAgg3
  z3 := Tryd.sizeOf3
  v3 := Tryd.zeroValue3
  t4 := Tryd.underlying4
  a4 := Tryd.isAgg4
  z4 := Tryd.sizeOf4
  v4 := Tryd.zeroValue4
  t9 := Tryd.underlying9
  a9 := Tryd.isAgg9
  z9 := Tryd.sizeOf9
  v9 := Tryd.zeroValue9 }
open Go.RowKit in
theorem Tryd.stringslite_CutPrefix (s p : ByteArray) (w : World) :
    Calls Tryd.prog 114 #[.string s, .string p] w fun e w' => e = .returned (.tuple #[.string ⟨(Lib.trimPrefix s.data.toList p.data.toList).toArray⟩, .bool (Lib.hasPrefix s.data.toList p.data.toList)]) ∧ w' = w := Any.stringslite_CutPrefix Tryd.lays210 s p w
def Tryd.lays103_ren : Go.Shelf.Ren := ⟨fun | 103 => 108 | 210 => 114 | 206 => 121 | n => n, fun | 9 => 9 | 4 => 4 | 24 => 153 | 3 => 3 | n => n, fun | n => n⟩
theorem Tryd.lays103 : Go.Proofs.Lays.n103 Tryd.prog Tryd.lays103_ren := {
  mixed := by kernel_rfl
  f103 := Tryd.func108.trans (congrArg some (by kernel_rfl))
  f206 := Tryd.func121.trans (congrArg some (by kernel_rfl))
  f210 := Tryd.func114.trans (congrArg some (by kernel_rfl))
  t3 := Tryd.underlying3
  a3 := Tryd.isAgg3
  z3 := Tryd.sizeOf3
  v3 := Tryd.zeroValue3
  t4 := Tryd.underlying4
  a4 := Tryd.isAgg4
  z4 := Tryd.sizeOf4
  v4 := Tryd.zeroValue4
  t9 := Tryd.underlying9
  a9 := Tryd.isAgg9
  z9 := Tryd.sizeOf9
  v9 := Tryd.zeroValue9
  t24 := Tryd.underlying153
  a24 := Tryd.isAgg153
  z24 := Tryd.sizeOf153
  v24 := Tryd.zeroValue153 }
open Go.RowKit in
theorem Tryd.strings_CutPrefix (s p : ByteArray) (w : World) :
    Calls Tryd.prog 108 #[.string s, .string p] w fun e w' => e = .returned (.tuple #[.string ⟨(Lib.trimPrefix s.data.toList p.data.toList).toArray⟩, .bool (Lib.hasPrefix s.data.toList p.data.toList)]) ∧ w' = w := Any.strings_CutPrefix Tryd.lays103 s p w
def Tryd.lays129_ren : Go.Shelf.Ren := ⟨fun | 129 => 84 | n => n, fun | 53 => 116 | 3 => 3 | 4 => 4 | 46 => 122 | 5 => 5 | 9 => 9 | n => n, fun | n => n⟩
theorem Tryd.lays129 : Go.Proofs.Lays.n129 Tryd.prog Tryd.lays129_ren := {
  mixed := by kernel_rfl
  f129 := Tryd.func84.trans (congrArg some (by kernel_rfl))
  t3 := Tryd.underlying3
  a3 := Tryd.isAgg3
  z3 := Tryd.sizeOf3
  v3 := Tryd.zeroValue3
  t4 := Tryd.underlying4
  a4 := Tryd.isAgg4
  z4 := Tryd.sizeOf4
  v4 := Tryd.zeroValue4
  t5 := Tryd.underlying5
  a5 := Tryd.isAgg5
  z5 := Tryd.sizeOf5
  v5 := Tryd.zeroValue5
  t9 := Tryd.underlying9
  a9 := Tryd.isAgg9
  z9 := Tryd.sizeOf9
  v9 := Tryd.zeroValue9
  t46 := Tryd.underlying122
  a46 := Tryd.isAgg122
  z46 := Tryd.sizeOf122
  v46 := Tryd.zeroValue122
  t53 := Tryd.underlying116
  a53 := Tryd.isAgg116
  z53 := Tryd.sizeOf116
  v53 := Tryd.zeroValue116 }
theorem Tryd.bits_Len64 (x : Int) (w : World) (h0 : 0 ≤ x) (h1 : x ≤ 18446744073709551615) :
    Calls Tryd.prog 84 #[.int .u64 x] w fun e w' => e = .returned (.int .i64 (Lib.bitLen x.toNat)) ∧ w' = w := Any.bits_Len64 Tryd.lays129 x w h0 h1
def Tryd.lays317_ren : Go.Shelf.Ren := ⟨fun | 317 => 83 | n => n, fun | 3 => 3 | 46 => 122 | n => n, fun | n => n⟩
theorem Tryd.lays317 : Go.Proofs.Lays.n317 Tryd.prog Tryd.lays317_ren := {
  mixed := by kernel_rfl
  f317 := Tryd.func83.trans (congrArg some (by kernel_rfl))
  t3 := Tryd.underlying3
  a3 := Tryd.isAgg3
  z3 := Tryd.sizeOf3
  v3 := Tryd.zeroValue3
  t46 := Tryd.underlying122
  a46 := Tryd.isAgg122
  z46 := Tryd.sizeOf122
  v46 := Tryd.zeroValue122 }
open Go.Lib in
theorem Tryd.internal_strconv_log10Pow2 (x : Nat) (h : x ≤ 64) (w : World) :
    Calls Tryd.prog 83 #[.int .i64 x] w fun e w' => e = .returned (.int .i64 (Lib.l10 x)) ∧ w' = w := Any.internal_strconv_log10Pow2 Tryd.lays317 x h w
def Tryd.lays318_ren : Go.Shelf.Ren := ⟨fun | 318 => 85 | n => n, fun | 3 => 3 | 4 => 4 | n => n, fun | n => n⟩
theorem Tryd.lays318 : Go.Proofs.Lays.n318 Tryd.prog Tryd.lays318_ren := {
  mixed := by kernel_rfl
  f318 := Tryd.func85.trans (congrArg some (by kernel_rfl))
  t3 := Tryd.underlying3
  a3 := Tryd.isAgg3
  z3 := Tryd.sizeOf3
  v3 := Tryd.zeroValue3
  t4 := Tryd.underlying4
  a4 := Tryd.isAgg4
  z4 := Tryd.sizeOf4
  v4 := Tryd.zeroValue4 }
open Go.Lib in
theorem Tryd.internal_strconv_bool2_int (b : Bool) (w : World) :
    Calls Tryd.prog 85 #[.bool b] w fun e w' => e = .returned (.int .i64 (if b then 1 else 0)) ∧ w' = w := Any.internal_strconv_bool2_int Tryd.lays318 b w
def Tryd.lays283_ren : Go.Shelf.Ren := ⟨fun | 283 => 66 | n => n, fun | 3 => 3 | 9 => 9 | 4 => 4 | n => n, fun | n => n⟩
theorem Tryd.lays283 : Go.Proofs.Lays.n283 Tryd.prog Tryd.lays283_ren := {
  mixed := by kernel_rfl
  f283 := Tryd.func66.trans (congrArg some (by kernel_rfl))
  t3 := Tryd.underlying3
  a3 := Tryd.isAgg3
  z3 := Tryd.sizeOf3
  v3 := Tryd.zeroValue3
  t4 := Tryd.underlying4
  a4 := Tryd.isAgg4
  z4 := Tryd.sizeOf4
  v4 := Tryd.zeroValue4
  t9 := Tryd.underlying9
  a9 := Tryd.isAgg9
  z9 := Tryd.sizeOf9
  v9 := Tryd.zeroValue9 }
open Go.Lib in
theorem Tryd.internal_strconv_small (i : Nat) (h : i < 100) (w : World) :
    Calls Tryd.prog 66 #[.int .i64 i] w fun e w' => e = .returned (.string ⟨(Lib.decDigits i).toArray⟩) ∧ w' = w := Any.internal_strconv_small Tryd.lays283 i h w
def Tryd.laysM284_ren : Go.Shelf.Ren := ⟨fun | 284 => 67 | 129 => 84 | 317 => 83 | 318 => 85 | n => n, fun | 53 => 116 | 3 => 3 | 212 => 133 | 0 => 0 | 4 => 4 | 46 => 122 | 5 => 5 | 9 => 9 | n => n, fun | 17 => 0 | n => n⟩
theorem Tryd.laysM284 : Go.Proofs.LaysM.n284 Tryd.prog Tryd.laysM284_ren := {
  mixed := by kernel_rfl
  f129 := Tryd.func84.trans (congrArg some (by kernel_rfl))
  f284 := Tryd.func67.trans (congrArg some (by kernel_rfl))
  f317 := Tryd.func83.trans (congrArg some (by kernel_rfl))
  f318 := Tryd.func85.trans (congrArg some (by kernel_rfl))
  t0 := Tryd.underlying0
  a0 := Tryd.isAgg0
  z0 := Tryd.sizeOf0
  v0 := Tryd.zeroValue0
  t3 := Tryd.underlying3
  a3 := Tryd.isAgg3
  z3 := Tryd.sizeOf3
  v3 := Tryd.zeroValue3
  t4 := Tryd.underlying4
  a4 := Tryd.isAgg4
  z4 := Tryd.sizeOf4
  v4 := Tryd.zeroValue4
  t5 := Tryd.underlying5
  a5 := Tryd.isAgg5
  z5 := Tryd.sizeOf5
  v5 := Tryd.zeroValue5
  t9 := Tryd.underlying9
  a9 := Tryd.isAgg9
  z9 := Tryd.sizeOf9
  v9 := Tryd.zeroValue9
  t46 := Tryd.underlying122
  a46 := Tryd.isAgg122
  z46 := Tryd.sizeOf122
  v46 := Tryd.zeroValue122
  t53 := Tryd.underlying116
  a53 := Tryd.isAgg116
  z53 := Tryd.sizeOf116
  v53 := Tryd.zeroValue116
  t212 := Tryd.underlying133
  a212 := Tryd.isAgg133
  z212 := Tryd.sizeOf133
  v212 := Tryd.zeroValue133
  g17 := by kernel_rfl
  i0 := by kernel_rfl
  i3 := by kernel_rfl
  i4 := by kernel_rfl
  i5 := by kernel_rfl
  i9 := by kernel_rfl
  i46 := by kernel_rfl
  i53 := by kernel_rfl
  i212 := by kernel_rfl
  m17 := by kernel_rfl }
open Go.Lib in
theorem Tryd.internal_strconv_numDigits (u : Nat) (h1 : 1 ≤ u) (h2 : u < 18446744073709551616) (w : World) (htab : Lib.TabIs Tryd.prog w "internal/strconv.uint64pow10" .u64 Lib.pow10Tab) :
    Calls Tryd.prog 67 #[.int .u64 u] w fun e w' => e = .returned (.int .i64 (Lib.nDigits u)) ∧ w' = w := Any.internal_strconv_numDigits Tryd.laysM284 u h1 h2 w htab
def Tryd.lays285_ren : Go.Shelf.Ren := ⟨fun | 285 => 68 | n => n, fun | 37 => 90 | 53 => 116 | 3 => 3 | 4 => 4 | 51 => 134 | 9 => 9 | 5 => 5 | 0 => 0 | n => n, fun | n => n⟩
theorem Tryd.lays285 : Go.Proofs.Lays.n285 Tryd.prog Tryd.lays285_ren := {
  mixed := by kernel_rfl
  f285 := Tryd.func68.trans (congrArg some (by kernel_rfl))
  t0 := Tryd.underlying0
  a0 := Tryd.isAgg0
  z0 := Tryd.sizeOf0
  v0 := Tryd.zeroValue0
  t3 := Tryd.underlying3
  a3 := Tryd.isAgg3
  z3 := Tryd.sizeOf3
  v3 := Tryd.zeroValue3
  t4 := Tryd.underlying4
  a4 := Tryd.isAgg4
  z4 := Tryd.sizeOf4
  v4 := Tryd.zeroValue4
  t5 := Tryd.underlying5
  a5 := Tryd.isAgg5
  z5 := Tryd.sizeOf5
  v5 := Tryd.zeroValue5
  t9 := Tryd.underlying9
  a9 := Tryd.isAgg9
  z9 := Tryd.sizeOf9
  v9 := Tryd.zeroValue9
  t37 := Tryd.underlying90
  a37 := Tryd.isAgg90
  z37 := Tryd.sizeOf90
  v37 := Tryd.zeroValue90
  t51 := Tryd.underlying134
  a51 := Tryd.isAgg134
  z51 := Tryd.sizeOf134
  v51 := Tryd.zeroValue134
  t53 := Tryd.underlying116
  a53 := Tryd.isAgg116
  z53 := Tryd.sizeOf116
  v53 := Tryd.zeroValue116 }
open Go.RowKit Go.Sort Go.Lib in
theorem Tryd.internal_strconv_formatBase10 (blk off cap : Nat) (u : Nat) (d : Array UInt8) (w : World) (hH : Holds (fun (b : UInt8) => Value.int .u8 (b.toNat : Int)) w blk off d) (hu : u < 10 ^ d.size) (hu64 : u < 18446744073709551616) (hsz : d.size < 4611686018427387904) :
    Calls Tryd.prog 68 #[.slice (some ⟨blk, off, none⟩) d.size cap, .int .u64 u] w fun e w' =>
      e = .returned (.tuple #[]) ∧ ∃ (n v' : Nat) (dk : Array UInt8), w' = (putRow (fun (b : UInt8) => Value.int .u8 (b.toNat : Int)) w blk off dk).drewN n ∧ FmtInv d.size u 0 v' dk := Any.internal_strconv_formatBase10 Tryd.lays285 blk off cap u d w hH hu hu64 hsz
def Tryd.laysM246_ren : Go.Shelf.Ren := ⟨fun | 246 => 50 | 283 => 66 | 284 => 67 | 285 => 68 | 286 => 69 | 129 => 84 | 317 => 83 | 318 => 85 | 319 => 86 | 320 => 87 | 337 => 96 | 338 => 97 | n => n, fun | 2 => 2 | 3 => 3 | 9 => 9 | 4 => 4 | 171 => 115 | 0 => 0 | 53 => 116 | 37 => 90 | 5 => 5 | 173 => 119 | 212 => 133 | 51 => 134 | 20 => 20 | 213 => 135 | 46 => 122 | 232 => 155 | 233 => 156 | n => n, fun | 17 => 0 | 18 => 1 | 19 => 2 | n => n⟩
theorem Tryd.laysM246 : Go.Proofs.LaysM.n246 Tryd.prog Tryd.laysM246_ren := {
  mixed := by kernel_rfl
  f129 := Tryd.func84.trans (congrArg some (by kernel_rfl))
  f246 := Tryd.func50.trans (congrArg some (by kernel_rfl))
  f283 := Tryd.func66.trans (congrArg some (by kernel_rfl))
  f284 := Tryd.func67.trans (congrArg some (by kernel_rfl))
  f285 := Tryd.func68.trans (congrArg some (by kernel_rfl))
  f286 := Tryd.func69.trans (congrArg some (by kernel_rfl))
  f317 := Tryd.func83.trans (congrArg some (by kernel_rfl))
  f318 := Tryd.func85.trans (congrArg some (by kernel_rfl))
  f319 := Tryd.func86.trans (congrArg some (by kernel_rfl))
  f320 := Tryd.func87.trans (congrArg some (by kernel_rfl))
  f337 := Tryd.func96.trans (congrArg some (by kernel_rfl))
  f338 := Tryd.func97.trans (congrArg some (by kernel_rfl))
  t0 := Tryd.underlying0
  a0 := Tryd.isAgg0
  z0 := Tryd.sizeOf0
  v0 := Tryd.zeroValue0
  t2 := Tryd.underlying2
  a2 := Tryd.isAgg2
  z2 := Tryd.sizeOf2
  v2 := Tryd.zeroValue2
  t3 := Tryd.underlying3
  a3 := Tryd.isAgg3
  z3 := Tryd.sizeOf3
  v3 := Tryd.zeroValue3
  t4 := Tryd.underlying4
  a4 := Tryd.isAgg4
  z4 := Tryd.sizeOf4
  v4 := Tryd.zeroValue4
  t5 := Tryd.underlying5
  a5 := Tryd.isAgg5
  z5 := Tryd.sizeOf5
  v5 := Tryd.zeroValue5
  t9 := Tryd.underlying9
  a9 := Tryd.isAgg9
  z9 := Tryd.sizeOf9
  v9 := Tryd.zeroValue9
  t20 := Tryd.underlying20
  a20 := Tryd.isAgg20
  z20 := Tryd.sizeOf20
  v20 := Tryd.zeroValue20
  t37 := Tryd.underlying90
  a37 := Tryd.isAgg90
  z37 := Tryd.sizeOf90
  v37 := Tryd.zeroValue90
  t46 := Tryd.underlying122
  a46 := Tryd.isAgg122
  z46 := Tryd.sizeOf122
  v46 := Tryd.zeroValue122
  t51 := Tryd.underlying134
  a51 := Tryd.isAgg134
  z51 := Tryd.sizeOf134
  v51 := Tryd.zeroValue134
  t53 := Tryd.underlying116
  a53 := Tryd.isAgg116
  z53 := Tryd.sizeOf116
  v53 := Tryd.zeroValue116
  t171 := Tryd.underlying115
  a171 := Tryd.isAgg115
  z171 := Tryd.sizeOf115
  v171 := Tryd.zeroValue115
  t173 := Tryd.underlying119
  a173 := Tryd.isAgg119
  z173 := Tryd.sizeOf119
  v173 := Tryd.zeroValue119
  t212 := Tryd.underlying133
  a212 := Tryd.isAgg133
  z212 := Tryd.sizeOf133
  v212 := Tryd.zeroValue133
  t213 := Tryd.underlying135
  a213 := Tryd.isAgg135
  z213 := Tryd.sizeOf135
  t232 := Tryd.underlying155
  a232 := Tryd.isAgg155
  z232 := Tryd.sizeOf155
  v232 := Tryd.zeroValue155
  t233 := Tryd.underlying156
  a233 := Tryd.isAgg156
  z233 := Tryd.sizeOf156
  v233 := Tryd.zeroValue156
  g17 := by kernel_rfl
  g18 := by kernel_rfl
  g19 := by kernel_rfl
  i0 := by kernel_rfl
  i2 := by kernel_rfl
  i3 := by kernel_rfl
  i4 := by kernel_rfl
  i5 := by kernel_rfl
  i9 := by kernel_rfl
  i20 := by kernel_rfl
  i37 := by kernel_rfl
  i46 := by kernel_rfl
  i51 := by kernel_rfl
  i53 := by kernel_rfl
  i171 := by kernel_rfl
  i173 := by kernel_rfl
  i212 := by kernel_rfl
  i232 := by kernel_rfl
  i233 := by kernel_rfl
  m17 := by kernel_rfl
  m18 := by kernel_rfl
  m19 := by kernel_rfl }
open Go.RowKit Go.Sort Go.Lib in
theorem Tryd.internal_strconv_FormatInt_10 (n : Int) (h0 : -9223372036854775808 ≤ n) (h1 : n ≤ 9223372036854775807) (w : World) (htab : Lib.TabIs Tryd.prog w "internal/strconv.uint64pow10" .u64 Lib.pow10Tab) :
    Calls Tryd.prog 50 #[.int .i64 n, .int .i64 10] w fun e w' => e = .returned (.string ⟨(Lib.itoa n).toArray⟩) ∧ ∃ k os, w' = grow (w.drewN k) os := Any.internal_strconv_FormatInt_10 Tryd.laysM246 n h0 h1 w htab
def Tryd.lays246_ren : Go.Shelf.Ren := ⟨fun | 246 => 50 | 283 => 66 | 284 => 67 | 285 => 68 | 286 => 69 | 129 => 84 | 317 => 83 | 318 => 85 | 319 => 86 | 320 => 87 | 337 => 96 | 338 => 97 | n => n, fun | 2 => 2 | 3 => 3 | 9 => 9 | 4 => 4 | 171 => 115 | 0 => 0 | 53 => 116 | 37 => 90 | 5 => 5 | 173 => 119 | 212 => 133 | 51 => 134 | 20 => 20 | 213 => 135 | 46 => 122 | 232 => 155 | 233 => 156 | n => n, fun | 17 => 0 | 18 => 1 | 19 => 2 | n => n⟩
theorem Tryd.lays246 : Go.Proofs.Lays.n246 Tryd.prog Tryd.lays246_ren := {
  mixed := by kernel_rfl
  f129 := Tryd.func84.trans (congrArg some (by kernel_rfl))
  f246 := Tryd.func50.trans (congrArg some (by kernel_rfl))
  f283 := Tryd.func66.trans (congrArg some (by kernel_rfl))
  f284 := Tryd.func67.trans (congrArg some (by kernel_rfl))
  f285 := Tryd.func68.trans (congrArg some (by kernel_rfl))
  f286 := Tryd.func69.trans (congrArg some (by kernel_rfl))
  f317 := Tryd.func83.trans (congrArg some (by kernel_rfl))
  f318 := Tryd.func85.trans (congrArg some (by kernel_rfl))
  f319 := Tryd.func86.trans (congrArg some (by kernel_rfl))
  f320 := Tryd.func87.trans (congrArg some (by kernel_rfl))
  f337 := Tryd.func96.trans (congrArg some (by kernel_rfl))
  f338 := Tryd.func97.trans (congrArg some (by kernel_rfl))
  t0 := Tryd.underlying0
  a0 := Tryd.isAgg0
  z0 := Tryd.sizeOf0
  v0 := Tryd.zeroValue0
  t2 := Tryd.underlying2
  a2 := Tryd.isAgg2
  z2 := Tryd.sizeOf2
  v2 := Tryd.zeroValue2
  t3 := Tryd.underlying3
  a3 := Tryd.isAgg3
  z3 := Tryd.sizeOf3
  v3 := Tryd.zeroValue3
  t4 := Tryd.underlying4
  a4 := Tryd.isAgg4
  z4 := Tryd.sizeOf4
  v4 := Tryd.zeroValue4
  t5 := Tryd.underlying5
  a5 := Tryd.isAgg5
  z5 := Tryd.sizeOf5
  v5 := Tryd.zeroValue5
  t9 := Tryd.underlying9
  a9 := Tryd.isAgg9
  z9 := Tryd.sizeOf9
  v9 := Tryd.zeroValue9
  t20 := Tryd.underlying20
  a20 := Tryd.isAgg20
  z20 := Tryd.sizeOf20
  v20 := Tryd.zeroValue20
  t37 := Tryd.underlying90
  a37 := Tryd.isAgg90
  z37 := Tryd.sizeOf90
  v37 := Tryd.zeroValue90
  t46 := Tryd.underlying122
  a46 := Tryd.isAgg122
  z46 := Tryd.sizeOf122
  v46 := Tryd.zeroValue122
  t51 := Tryd.underlying134
  a51 := Tryd.isAgg134
  z51 := Tryd.sizeOf134
  v51 := Tryd.zeroValue134
  t53 := Tryd.underlying116
  a53 := Tryd.isAgg116
  z53 := Tryd.sizeOf116
  v53 := Tryd.zeroValue116
  t171 := Tryd.underlying115
  a171 := Tryd.isAgg115
  z171 := Tryd.sizeOf115
  v171 := Tryd.zeroValue115
  t173 := Tryd.underlying119
  a173 := Tryd.isAgg119
  z173 := Tryd.sizeOf119
  v173 := Tryd.zeroValue119
  t212 := Tryd.underlying133
  a212 := Tryd.isAgg133
  z212 := Tryd.sizeOf133
  v212 := Tryd.zeroValue133
  t213 := Tryd.underlying135
  a213 := Tryd.isAgg135
  z213 := Tryd.sizeOf135
  t232 := Tryd.underlying155
  a232 := Tryd.isAgg155
  z232 := Tryd.sizeOf155
  v232 := Tryd.zeroValue155
  t233 := Tryd.underlying156
  a233 := Tryd.isAgg156
  z233 := Tryd.sizeOf156
  v233 := Tryd.zeroValue156
  g17 := by kernel_rfl
  g18 := by kernel_rfl
  g19 := by kernel_rfl }
open Go.RowKit Go.Sort Go.Lib in
theorem Tryd.internal_strconv_FormatInt_10_small (i : Nat) (hi : i < 100) (w : World) :
    Calls Tryd.prog 50 #[.int .i64 i, .int .i64 10] w fun e w' => e = .returned (.string ⟨(Lib.decDigits i).toArray⟩) ∧ w' = w := Any.internal_strconv_FormatInt_10_small Tryd.lays246 i hi w
def Tryd.laysM243_ren : Go.Shelf.Ren := ⟨fun | 243 => 32 | 246 => 50 | 283 => 66 | 284 => 67 | 285 => 68 | 286 => 69 | 129 => 84 | 317 => 83 | 318 => 85 | 319 => 86 | 320 => 87 | 337 => 96 | 338 => 97 | n => n, fun | 3 => 3 | 9 => 9 | 2 => 2 | 4 => 4 | 171 => 115 | 0 => 0 | 53 => 116 | 37 => 90 | 5 => 5 | 173 => 119 | 212 => 133 | 51 => 134 | 20 => 20 | 213 => 135 | 46 => 122 | 232 => 155 | 233 => 156 | n => n, fun | 17 => 0 | 18 => 1 | 19 => 2 | n => n⟩
theorem Tryd.laysM243 : Go.Proofs.LaysM.n243 Tryd.prog Tryd.laysM243_ren := {
  mixed := by kernel_rfl
  f129 := Tryd.func84.trans (congrArg some (by kernel_rfl))
  f243 := Tryd.func32.trans (congrArg some (by kernel_rfl))
  f246 := Tryd.func50.trans (congrArg some (by kernel_rfl))
  f283 := Tryd.func66.trans (congrArg some (by kernel_rfl))
  f284 := Tryd.func67.trans (congrArg some (by kernel_rfl))
  f285 := Tryd.func68.trans (congrArg some (by kernel_rfl))
  f286 := Tryd.func69.trans (congrArg some (by kernel_rfl))
  f317 := Tryd.func83.trans (congrArg some (by kernel_rfl))
  f318 := Tryd.func85.trans (congrArg some (by kernel_rfl))
  f319 := Tryd.func86.trans (congrArg some (by kernel_rfl))
  f320 := Tryd.func87.trans (congrArg some (by kernel_rfl))
  f337 := Tryd.func96.trans (congrArg some (by kernel_rfl))
  f338 := Tryd.func97.trans (congrArg some (by kernel_rfl))
  t0 := Tryd.underlying0
  a0 := Tryd.isAgg0
  z0 := Tryd.sizeOf0
  v0 := Tryd.zeroValue0
  t2 := Tryd.underlying2
  a2 := Tryd.isAgg2
  z2 := Tryd.sizeOf2
  v2 := Tryd.zeroValue2
  t3 := Tryd.underlying3
  a3 := Tryd.isAgg3
  z3 := Tryd.sizeOf3
  v3 := Tryd.zeroValue3
  t4 := Tryd.underlying4
  a4 := Tryd.isAgg4
  z4 := Tryd.sizeOf4
  v4 := Tryd.zeroValue4
  t5 := Tryd.underlying5
  a5 := Tryd.isAgg5
  z5 := Tryd.sizeOf5
  v5 := Tryd.zeroValue5
  t9 := Tryd.underlying9
  a9 := Tryd.isAgg9
  z9 := Tryd.sizeOf9
  v9 := Tryd.zeroValue9
  t20 := Tryd.underlying20
  a20 := Tryd.isAgg20
  z20 := Tryd.sizeOf20
  v20 := Tryd.zeroValue20
  t37 := Tryd.underlying90
  a37 := Tryd.isAgg90
  z37 := Tryd.sizeOf90
  v37 := Tryd.zeroValue90
  t46 := Tryd.underlying122
  a46 := Tryd.isAgg122
  z46 := Tryd.sizeOf122
  v46 := Tryd.zeroValue122
  t51 := Tryd.underlying134
  a51 := Tryd.isAgg134
  z51 := Tryd.sizeOf134
  v51 := Tryd.zeroValue134
  t53 := Tryd.underlying116
  a53 := Tryd.isAgg116
  z53 := Tryd.sizeOf116
  v53 := Tryd.zeroValue116
  t171 := Tryd.underlying115
  a171 := Tryd.isAgg115
  z171 := Tryd.sizeOf115
  v171 := Tryd.zeroValue115
  t173 := Tryd.underlying119
  a173 := Tryd.isAgg119
  z173 := Tryd.sizeOf119
  v173 := Tryd.zeroValue119
  t212 := Tryd.underlying133
  a212 := Tryd.isAgg133
  z212 := Tryd.sizeOf133
  v212 := Tryd.zeroValue133
  t213 := Tryd.underlying135
  a213 := Tryd.isAgg135
  z213 := Tryd.sizeOf135
  t232 := Tryd.underlying155
  a232 := Tryd.isAgg155
  z232 := Tryd.sizeOf155
  v232 := Tryd.zeroValue155
  t233 := Tryd.underlying156
  a233 := Tryd.isAgg156
  z233 := Tryd.sizeOf156
  v233 := Tryd.zeroValue156
  g17 := by kernel_rfl
  g18 := by kernel_rfl
  g19 := by kernel_rfl
  i0 := by kernel_rfl
  i2 := by kernel_rfl
  i3 := by kernel_rfl
  i4 := by kernel_rfl
  i5 := by kernel_rfl
  i9 := by kernel_rfl
  i20 := by kernel_rfl
  i37 := by kernel_rfl
  i46 := by kernel_rfl
  i51 := by kernel_rfl
  i53 := by kernel_rfl
  i171 := by kernel_rfl
  i173 := by kernel_rfl
  i212 := by kernel_rfl
  i232 := by kernel_rfl
  i233 := by kernel_rfl
  m17 := by kernel_rfl
  m18 := by kernel_rfl
  m19 := by kernel_rfl }
open Go.RowKit Go.Sort Go.Lib in
theorem Tryd.internal_strconv_Itoa (n : Int) (h0 : -9223372036854775808 ≤ n) (h1 : n ≤ 9223372036854775807) (w : World) (htab : Lib.TabIs Tryd.prog w "internal/strconv.uint64pow10" .u64 Lib.pow10Tab) :
    Calls Tryd.prog 32 #[.int .i64 n] w fun e w' => e = .returned (.string ⟨(Lib.itoa n).toArray⟩) ∧ ∃ k os, w' = grow (w.drewN k) os := Any.internal_strconv_Itoa Tryd.laysM243 n h0 h1 w htab
def Tryd.lays243_ren : Go.Shelf.Ren := ⟨fun | 243 => 32 | 246 => 50 | 283 => 66 | 284 => 67 | 285 => 68 | 286 => 69 | 129 => 84 | 317 => 83 | 318 => 85 | 319 => 86 | 320 => 87 | 337 => 96 | 338 => 97 | n => n, fun | 3 => 3 | 9 => 9 | 2 => 2 | 4 => 4 | 171 => 115 | 0 => 0 | 53 => 116 | 37 => 90 | 5 => 5 | 173 => 119 | 212 => 133 | 51 => 134 | 20 => 20 | 213 => 135 | 46 => 122 | 232 => 155 | 233 => 156 | n => n, fun | 17 => 0 | 18 => 1 | 19 => 2 | n => n⟩
theorem Tryd.lays243 : Go.Proofs.Lays.n243 Tryd.prog Tryd.lays243_ren := {
  mixed := by kernel_rfl
  f129 := Tryd.func84.trans (congrArg some (by kernel_rfl))
  f243 := Tryd.func32.trans (congrArg some (by kernel_rfl))
  f246 := Tryd.func50.trans (congrArg some (by kernel_rfl))
  f283 := Tryd.func66.trans (congrArg some (by kernel_rfl))
  f284 := Tryd.func67.trans (congrArg some (by kernel_rfl))
  f285 := Tryd.func68.trans (congrArg some (by kernel_rfl))
  f286 := Tryd.func69.trans (congrArg some (by kernel_rfl))
  f317 := Tryd.func83.trans (congrArg some (by kernel_rfl))
  f318 := Tryd.func85.trans (congrArg some (by kernel_rfl))
  f319 := Tryd.func86.trans (congrArg some (by kernel_rfl))
  f320 := Tryd.func87.trans (congrArg some (by kernel_rfl))
  f337 := Tryd.func96.trans (congrArg some (by kernel_rfl))
  f338 := Tryd.func97.trans (congrArg some (by kernel_rfl))
  t0 := Tryd.underlying0
  a0 := Tryd.isAgg0
  z0 := Tryd.sizeOf0
  v0 := Tryd.zeroValue0
  t2 := Tryd.underlying2
  a2 := Tryd.isAgg2
  z2 := Tryd.sizeOf2
  v2 := Tryd.zeroValue2
  t3 := Tryd.underlying3
  a3 := Tryd.isAgg3
  z3 := Tryd.sizeOf3
  v3 := Tryd.zeroValue3
  t4 := Tryd.underlying4
  a4 := Tryd.isAgg4
  z4 := Tryd.sizeOf4
  v4 := Tryd.zeroValue4
  t5 := Tryd.underlying5
  a5 := Tryd.isAgg5
  z5 := Tryd.sizeOf5
  v5 := Tryd.zeroValue5
  t9 := Tryd.underlying9
  a9 := Tryd.isAgg9
  z9 := Tryd.sizeOf9
  v9 := Tryd.zeroValue9
  t20 := Tryd.underlying20
  a20 := Tryd.isAgg20
  z20 := Tryd.sizeOf20
  v20 := Tryd.zeroValue20
  t37 := Tryd.underlying90
  a37 := Tryd.isAgg90
  z37 := Tryd.sizeOf90
  v37 := Tryd.zeroValue90
  t46 := Tryd.underlying122
  a46 := Tryd.isAgg122
  z46 := Tryd.sizeOf122
  v46 := Tryd.zeroValue122
  t51 := Tryd.underlying134
  a51 := Tryd.isAgg134
  z51 := Tryd.sizeOf134
  v51 := Tryd.zeroValue134
  t53 := Tryd.underlying116
  a53 := Tryd.isAgg116
  z53 := Tryd.sizeOf116
  v53 := Tryd.zeroValue116
  t171 := Tryd.underlying115
  a171 := Tryd.isAgg115
  z171 := Tryd.sizeOf115
  v171 := Tryd.zeroValue115
  t173 := Tryd.underlying119
  a173 := Tryd.isAgg119
  z173 := Tryd.sizeOf119
  v173 := Tryd.zeroValue119
  t212 := Tryd.underlying133
  a212 := Tryd.isAgg133
  z212 := Tryd.sizeOf133
  v212 := Tryd.zeroValue133
  t213 := Tryd.underlying135
  a213 := Tryd.isAgg135
  z213 := Tryd.sizeOf135
  t232 := Tryd.underlying155
  a232 := Tryd.isAgg155
  z232 := Tryd.sizeOf155
  v232 := Tryd.zeroValue155
  t233 := Tryd.underlying156
  a233 := Tryd.isAgg156
  z233 := Tryd.sizeOf156
  v233 := Tryd.zeroValue156
  g17 := by kernel_rfl
  g18 := by kernel_rfl
  g19 := by kernel_rfl }
open Go.RowKit Go.Sort Go.Lib in
theorem Tryd.internal_strconv_Itoa_small (i : Nat) (hi : i < 100) (w : World) :
    Calls Tryd.prog 32 #[.int .i64 i] w fun e w' => e = .returned (.string ⟨(Lib.decDigits i).toArray⟩) ∧ w' = w := Any.internal_strconv_Itoa_small Tryd.lays243 i hi w
def Tryd.laysM171_ren : Go.Shelf.Ren := ⟨fun | 171 => 9 | 243 => 32 | 246 => 50 | 283 => 66 | 284 => 67 | 285 => 68 | 286 => 69 | 129 => 84 | 317 => 83 | 318 => 85 | 319 => 86 | 320 => 87 | 337 => 96 | 338 => 97 | n => n, fun | 3 => 3 | 9 => 9 | 2 => 2 | 4 => 4 | 171 => 115 | 0 => 0 | 53 => 116 | 37 => 90 | 5 => 5 | 173 => 119 | 212 => 133 | 51 => 134 | 20 => 20 | 213 => 135 | 46 => 122 | 232 => 155 | 233 => 156 | n => n, fun | 17 => 0 | 18 => 1 | 19 => 2 | n => n⟩
theorem Tryd.laysM171 : Go.Proofs.LaysM.n171 Tryd.prog Tryd.laysM171_ren := {
  mixed := by kernel_rfl
  f129 := Tryd.func84.trans (congrArg some (by kernel_rfl))
  f171 := Tryd.func9.trans (congrArg some (by kernel_rfl))
  f243 := Tryd.func32.trans (congrArg some (by kernel_rfl))
  f246 := Tryd.func50.trans (congrArg some (by kernel_rfl))
  f283 := Tryd.func66.trans (congrArg some (by kernel_rfl))
  f284 := Tryd.func67.trans (congrArg some (by kernel_rfl))
  f285 := Tryd.func68.trans (congrArg some (by kernel_rfl))
  f286 := Tryd.func69.trans (congrArg some (by kernel_rfl))
  f317 := Tryd.func83.trans (congrArg some (by kernel_rfl))
  f318 := Tryd.func85.trans (congrArg some (by kernel_rfl))
  f319 := Tryd.func86.trans (congrArg some (by kernel_rfl))
  f320 := Tryd.func87.trans (congrArg some (by kernel_rfl))
  f337 := Tryd.func96.trans (congrArg some (by kernel_rfl))
  f338 := Tryd.func97.trans (congrArg some (by kernel_rfl))
  t0 := Tryd.underlying0
  a0 := Tryd.isAgg0
  z0 := Tryd.sizeOf0
  v0 := Tryd.zeroValue0
  t2 := Tryd.underlying2
  a2 := Tryd.isAgg2
  z2 := Tryd.sizeOf2
  v2 := Tryd.zeroValue2
  t3 := Tryd.underlying3
  a3 := Tryd.isAgg3
  z3 := Tryd.sizeOf3
  v3 := Tryd.zeroValue3
  t4 := Tryd.underlying4
  a4 := Tryd.isAgg4
  z4 := Tryd.sizeOf4
  v4 := Tryd.zeroValue4
  t5 := Tryd.underlying5
  a5 := Tryd.isAgg5
  z5 := Tryd.sizeOf5
  v5 := Tryd.zeroValue5
  t9 := Tryd.underlying9
  a9 := Tryd.isAgg9
  z9 := Tryd.sizeOf9
  v9 := Tryd.zeroValue9
  t20 := Tryd.underlying20
  a20 := Tryd.isAgg20
  z20 := Tryd.sizeOf20
  v20 := Tryd.zeroValue20
  t37 := Tryd.underlying90
  a37 := Tryd.isAgg90
  z37 := Tryd.sizeOf90
  v37 := Tryd.zeroValue90
  t46 := Tryd.underlying122
  a46 := Tryd.isAgg122
  z46 := Tryd.sizeOf122
  v46 := Tryd.zeroValue122
  t51 := Tryd.underlying134
  a51 := Tryd.isAgg134
  z51 := Tryd.sizeOf134
  v51 := Tryd.zeroValue134
  t53 := Tryd.underlying116
  a53 := Tryd.isAgg116
  z53 := Tryd.sizeOf116
  v53 := Tryd.zeroValue116
  t171 := Tryd.underlying115
  a171 := Tryd.isAgg115
  z171 := Tryd.sizeOf115
  v171 := Tryd.zeroValue115
  t173 := Tryd.underlying119
  a173 := Tryd.isAgg119
  z173 := Tryd.sizeOf119
  v173 := Tryd.zeroValue119
  t212 := Tryd.underlying133
  a212 := Tryd.isAgg133
  z212 := Tryd.sizeOf133
  v212 := Tryd.zeroValue133
  t213 := Tryd.underlying135
  a213 := Tryd.isAgg135
  z213 := Tryd.sizeOf135
  t232 := Tryd.underlying155
  a232 := Tryd.isAgg155
  z232 := Tryd.sizeOf155
  v232 := Tryd.zeroValue155
  t233 := Tryd.underlying156
  a233 := Tryd.isAgg156
  z233 := Tryd.sizeOf156
  v233 := Tryd.zeroValue156
  g17 := by kernel_rfl
  g18 := by kernel_rfl
  g19 := by kernel_rfl
  i0 := by kernel_rfl
  i2 := by kernel_rfl
  i3 := by kernel_rfl
  i4 := by kernel_rfl
  i5 := by kernel_rfl
  i9 := by kernel_rfl
  i20 := by kernel_rfl
  i37 := by kernel_rfl
  i46 := by kernel_rfl
  i51 := by kernel_rfl
  i53 := by kernel_rfl
  i171 := by kernel_rfl
  i173 := by kernel_rfl
  i212 := by kernel_rfl
  i232 := by kernel_rfl
  i233 := by kernel_rfl
  m17 := by kernel_rfl
  m18 := by kernel_rfl
  m19 := by kernel_rfl }
open Go.RowKit Go.Sort Go.Lib in
theorem Tryd.strconv_Itoa (n : Int) (h0 : -9223372036854775808 ≤ n) (h1 : n ≤ 9223372036854775807) (w : World) (htab : Lib.TabIs Tryd.prog w "internal/strconv.uint64pow10" .u64 Lib.pow10Tab) :
    Calls Tryd.prog 9 #[.int .i64 n] w fun e w' => e = .returned (.string ⟨(Lib.itoa n).toArray⟩) ∧ ∃ k os, w' = grow (w.drewN k) os := Any.strconv_Itoa Tryd.laysM171 n h0 h1 w htab
def Tryd.lays171_ren : Go.Shelf.Ren := ⟨fun | 171 => 9 | 243 => 32 | 246 => 50 | 283 => 66 | 284 => 67 | 285 => 68 | 286 => 69 | 129 => 84 | 317 => 83 | 318 => 85 | 319 => 86 | 320 => 87 | 337 => 96 | 338 => 97 | n => n, fun | 3 => 3 | 9 => 9 | 2 => 2 | 4 => 4 | 171 => 115 | 0 => 0 | 53 => 116 | 37 => 90 | 5 => 5 | 173 => 119 | 212 => 133 | 51 => 134 | 20 => 20 | 213 => 135 | 46 => 122 | 232 => 155 | 233 => 156 | n => n, fun | 17 => 0 | 18 => 1 | 19 => 2 | n => n⟩
theorem Tryd.lays171 : Go.Proofs.Lays.n171 Tryd.prog Tryd.lays171_ren := {
  mixed := by kernel_rfl
  f129 := Tryd.func84.trans (congrArg some (by kernel_rfl))
  f171 := Tryd.func9.trans (congrArg some (by kernel_rfl))
  f243 := Tryd.func32.trans (congrArg some (by kernel_rfl))
  f246 := Tryd.func50.trans (congrArg some (by kernel_rfl))
  f283 := Tryd.func66.trans (congrArg some (by kernel_rfl))
  f284 := Tryd.func67.trans (congrArg some (by kernel_rfl))
  f285 := Tryd.func68.trans (congrArg some (by kernel_rfl))
  f286 := Tryd.func69.trans (congrArg some (by kernel_rfl))
  f317 := Tryd.func83.trans (congrArg some (by kernel_rfl))
  f318 := Tryd.func85.trans (congrArg some (by kernel_rfl))
  f319 := Tryd.func86.trans (congrArg some (by kernel_rfl))
  f320 := Tryd.func87.trans (congrArg some (by kernel_rfl))
  f337 := Tryd.func96.trans (congrArg some (by kernel_rfl))
  f338 := Tryd.func97.trans (congrArg some (by kernel_rfl))
  t0 := Tryd.underlying0
  a0 := Tryd.isAgg0
  z0 := Tryd.sizeOf0
  v0 := Tryd.zeroValue0
  t2 := Tryd.underlying2
  a2 := Tryd.isAgg2
  z2 := Tryd.sizeOf2
  v2 := Tryd.zeroValue2
  t3 := Tryd.underlying3
  a3 := Tryd.isAgg3
  z3 := Tryd.sizeOf3
  v3 := Tryd.zeroValue3
  t4 := Tryd.underlying4
  a4 := Tryd.isAgg4
  z4 := Tryd.sizeOf4
  v4 := Tryd.zeroValue4
  t5 := Tryd.underlying5
  a5 := Tryd.isAgg5
  z5 := Tryd.sizeOf5
  v5 := Tryd.zeroValue5
  t9 := Tryd.underlying9
  a9 := Tryd.isAgg9
  z9 := Tryd.sizeOf9
  v9 := Tryd.zeroValue9
  t20 := Tryd.underlying20
  a20 := Tryd.isAgg20
  z20 := Tryd.sizeOf20
  v20 := Tryd.zeroValue20
  t37 := Tryd.underlying90
  a37 := Tryd.isAgg90
  z37 := Tryd.sizeOf90
  v37 := Tryd.zeroValue90
  t46 := Tryd.underlying122
  a46 := Tryd.isAgg122
  z46 := Tryd.sizeOf122
  v46 := Tryd.zeroValue122
  t51 := Tryd.underlying134
  a51 := Tryd.isAgg134
  z51 := Tryd.sizeOf134
  v51 := Tryd.zeroValue134
  t53 := Tryd.underlying116
  a53 := Tryd.isAgg116
  z53 := Tryd.sizeOf116
  v53 := Tryd.zeroValue116
  t171 := Tryd.underlying115
  a171 := Tryd.isAgg115
  z171 := Tryd.sizeOf115
  v171 := Tryd.zeroValue115
  t173 := Tryd.underlying119
  a173 := Tryd.isAgg119
  z173 := Tryd.sizeOf119
  v173 := Tryd.zeroValue119
  t212 := Tryd.underlying133
  a212 := Tryd.isAgg133
  z212 := Tryd.sizeOf133
  v212 := Tryd.zeroValue133
  t213 := Tryd.underlying135
  a213 := Tryd.isAgg135
  z213 := Tryd.sizeOf135
  t232 := Tryd.underlying155
  a232 := Tryd.isAgg155
  z232 := Tryd.sizeOf155
  v232 := Tryd.zeroValue155
  t233 := Tryd.underlying156
  a233 := Tryd.isAgg156
  z233 := Tryd.sizeOf156
  v233 := Tryd.zeroValue156
  g17 := by kernel_rfl
  g18 := by kernel_rfl
  g19 := by kernel_rfl }
open Go.RowKit Go.Sort Go.Lib in
theorem Tryd.strconv_Itoa_small (i : Nat) (hi : i < 100) (w : World) :
    Calls Tryd.prog 9 #[.int .i64 i] w fun e w' => e = .returned (.string ⟨(Lib.decDigits i).toArray⟩) ∧ w' = w := Any.strconv_Itoa_small Tryd.lays171 i hi w
def Tryd.lays217_ren : Go.Shelf.Ren := ⟨fun | 217 => 122 | 266 => 123 | n => n, fun | 9 => 9 | 5 => 5 | 3 => 3 | n => n, fun | n => n⟩
theorem Tryd.lays217 : Go.Proofs.Lays.n217 Tryd.prog Tryd.lays217_ren := {
  mixed := by kernel_rfl
  f217 := Tryd.func122.trans (congrArg some (by kernel_rfl))
  f266 := Tryd.func123.trans (congrArg some (by kernel_rfl))
  t3 := Tryd.underlying3
  a3 := Tryd.isAgg3
  z3 := Tryd.sizeOf3
  v3 := Tryd.zeroValue3
  t5 := Tryd.underlying5
  a5 := Tryd.isAgg5
  z5 := Tryd.sizeOf5
  v5 := Tryd.zeroValue5
  t9 := Tryd.underlying9
  a9 := Tryd.isAgg9
  z9 := Tryd.sizeOf9
  v9 := Tryd.zeroValue9 }
open Go.RowKit Go.Lib in
theorem Tryd.stringslite_IndexByte (s : ByteArray) (c : Int) (w : World) :
    Calls Tryd.prog 122 #[.string s, .int .u8 c] w fun e w' => e = .returned (.int .i64 (Lib.indexByte s.data.toList c.toNat.toUInt8)) ∧ w' = w := Any.stringslite_IndexByte Tryd.lays217 s c w
def Tryd.lays224_ren : Go.Shelf.Ren := ⟨fun | 224 => 117 | n => n, fun | 3 => 3 | n => n, fun | n => n⟩
theorem Tryd.lays224 : Go.Proofs.Lays.n224 Tryd.prog Tryd.lays224_ren := {
  mixed := by kernel_rfl
  f224 := Tryd.func117.trans (congrArg some (by kernel_rfl))
  t3 := Tryd.underlying3
  a3 := Tryd.isAgg3
  z3 := Tryd.sizeOf3
  v3 := Tryd.zeroValue3 }
open Go.RowKit Go.Lib in
theorem Tryd.bytealg_Cutover (n : Int) (h0 : 0 ≤ n) (h1 : n < 4611686018427387904) (w : World) :
    Calls Tryd.prog 117 #[.int .i64 n] w fun e w' => e = .returned (.int .i64 ((n + 16) / 8)) ∧ w' = w := Any.bytealg_Cutover Tryd.lays224 n h0 h1 w
def Tryd.lays206_ren : Go.Shelf.Ren := ⟨fun | 206 => 121 | n => n, fun | 9 => 9 | 4 => 4 | 3 => 3 | n => n, fun | n => n⟩
theorem Tryd.lays206 : Go.Proofs.Lays.n206 Tryd.prog Tryd.lays206_ren := {
  mixed := by kernel_rfl
  f206 := Tryd.func121.trans (congrArg some (by kernel_rfl))
  t3 := Tryd.underlying3
  a3 := Tryd.isAgg3
  z3 := Tryd.sizeOf3
  v3 := Tryd.zeroValue3
  t4 := Tryd.underlying4
  a4 := Tryd.isAgg4
  z4 := Tryd.sizeOf4
  v4 := Tryd.zeroValue4
  t9 := Tryd.underlying9
  a9 := Tryd.isAgg9
  z9 := Tryd.sizeOf9
  v9 := Tryd.zeroValue9 }
open Go.RowKit Go.Lib in
theorem Tryd.stringslite_HasPrefix (s p : ByteArray) (w : World) :
    Calls Tryd.prog 121 #[.string s, .string p] w fun e w' => e = .returned (.bool (Lib.hasPrefix s.data.toList p.data.toList)) ∧ w' = w := Any.stringslite_HasPrefix Tryd.lays206 s p w
def Tryd.lays197_ren : Go.Shelf.Ren := ⟨fun | 197 => 112 | 260 => 119 | n => n, fun | 9 => 9 | 21 => 21 | 3 => 3 | 4 => 4 | 5 => 5 | 105 => 159 | 119 => 162 | 0 => 0 | 46 => 122 | 139 => 165 | 138 => 164 | n => n, fun | 3 => 4 | 4 => 5 | n => n⟩
theorem Tryd.lays197 : Go.Proofs.Lays.n197 Tryd.prog Tryd.lays197_ren := {
  mixed := by kernel_rfl
  f197 := Tryd.func112.trans (congrArg some (by kernel_rfl))
  f260 := Tryd.func119.trans (congrArg some (by kernel_rfl))
  t0 := Tryd.underlying0
  a0 := Tryd.isAgg0
  z0 := Tryd.sizeOf0
  v0 := Tryd.zeroValue0
  t3 := Tryd.underlying3
  a3 := Tryd.isAgg3
  z3 := Tryd.sizeOf3
  v3 := Tryd.zeroValue3
  t4 := Tryd.underlying4
  a4 := Tryd.isAgg4
  z4 := Tryd.sizeOf4
  v4 := Tryd.zeroValue4
  t5 := Tryd.underlying5
  a5 := Tryd.isAgg5
  z5 := Tryd.sizeOf5
  v5 := Tryd.zeroValue5
  t9 := Tryd.underlying9
  a9 := Tryd.isAgg9
  z9 := Tryd.sizeOf9
  v9 := Tryd.zeroValue9
  t21 := Tryd.underlying21
  a21 := Tryd.isAgg21
  z21 := Tryd.sizeOf21
  v21 := Tryd.zeroValue21
  t46 := Tryd.underlying122
  a46 := Tryd.isAgg122
  z46 := Tryd.sizeOf122
  v46 := Tryd.zeroValue122
  t105 := Tryd.underlying159
  a105 := Tryd.isAgg159
  z105 := Tryd.sizeOf159
  v105 := Tryd.zeroValue159
  t119 := Tryd.underlying162
  a119 := Tryd.isAgg162
  z119 := Tryd.sizeOf162
  t138 := Tryd.underlying164
  a138 := Tryd.isAgg164
  z138 := Tryd.sizeOf164
  v138 := Tryd.zeroValue164
  t139 := Tryd.underlying165
  a139 := Tryd.isAgg165
  z139 := Tryd.sizeOf165
  v139 := Tryd.zeroValue165
  g3 := by kernel_rfl
  g4 := by kernel_rfl }
open Go.RowKit Go.Lib in
theorem Tryd.utf8_DecodeRuneInString_ascii (s : ByteArray) (x : UInt8) (w : World) (h0 : s.data.toList[0]? = some x) (hx : x.toNat < 128) :
    Calls Tryd.prog 112 #[.string s] w fun e w' => e = .returned (.tuple #[.int .i32 x.toNat, .int .i64 1]) ∧ w' = w := Any.utf8_DecodeRuneInString_ascii Tryd.lays197 s x w h0 hx
def Tryd.lays152_ren : Go.Shelf.Ren := ⟨fun | 152 => 109 | 137 => 115 | 119 => 116 | 224 => 117 | 225 => 118 | 217 => 122 | 266 => 123 | n => n, fun | 9 => 9 | 21 => 21 | 3 => 3 | 4 => 4 | 5 => 5 | 0 => 0 | 46 => 122 | n => n, fun | n => n⟩
theorem Tryd.lays152 : Go.Proofs.Lays.n152 Tryd.prog Tryd.lays152_ren := {
  mixed := by kernel_rfl
  f119 := Tryd.func116.trans (congrArg some (by kernel_rfl))
  f137 := Tryd.func115.trans (congrArg some (by kernel_rfl))
  f152 := Tryd.func109.trans (congrArg some (by kernel_rfl))
  f217 := Tryd.func122.trans (congrArg some (by kernel_rfl))
  f224 := Tryd.func117.trans (congrArg some (by kernel_rfl))
  f225 := Tryd.func118.trans (congrArg some (by kernel_rfl))
  f266 := Tryd.func123.trans (congrArg some (by kernel_rfl))
  t0 := Tryd.underlying0
  a0 := Tryd.isAgg0
  z0 := Tryd.sizeOf0
  v0 := Tryd.zeroValue0
  t3 := Tryd.underlying3
  a3 := Tryd.isAgg3
  z3 := Tryd.sizeOf3
  v3 := Tryd.zeroValue3
  t4 := Tryd.underlying4
  a4 := Tryd.isAgg4
  z4 := Tryd.sizeOf4
  v4 := Tryd.zeroValue4
  t5 := Tryd.underlying5
  a5 := Tryd.isAgg5
  z5 := Tryd.sizeOf5
  v5 := Tryd.zeroValue5
  t9 := Tryd.underlying9
  a9 := Tryd.isAgg9
  z9 := Tryd.sizeOf9
  v9 := Tryd.zeroValue9
  t21 := Tryd.underlying21
  a21 := Tryd.isAgg21
  z21 := Tryd.sizeOf21
  v21 := Tryd.zeroValue21
  t46 := Tryd.underlying122
  a46 := Tryd.isAgg122
  z46 := Tryd.sizeOf122
  v46 := Tryd.zeroValue122 }
open Go.RowKit Go.Lib in
theorem Tryd.strings_IndexRune_ascii (s : ByteArray) (r : Int) (w : World) (h0 : 0 ≤ r) (h1 : r < 128) :
    Calls Tryd.prog 109 #[.string s, .int .i32 r] w fun e w' => e = .returned (.int .i64 (Lib.indexByte s.data.toList r.toNat.toUInt8)) ∧ w' = w := Any.strings_IndexRune_ascii Tryd.lays152 s r w h0 h1
def Tryd.lays151_ren : Go.Shelf.Ren := ⟨fun | 151 => 99 | 152 => 109 | 137 => 115 | 119 => 116 | 224 => 117 | 225 => 118 | 217 => 122 | 266 => 123 | n => n, fun | 9 => 9 | 21 => 21 | 4 => 4 | 3 => 3 | 5 => 5 | 0 => 0 | 46 => 122 | n => n, fun | n => n⟩
theorem Tryd.lays151 : Go.Proofs.Lays.n151 Tryd.prog Tryd.lays151_ren := {
  mixed := by kernel_rfl
  f119 := Tryd.func116.trans (congrArg some (by kernel_rfl))
  f137 := Tryd.func115.trans (congrArg some (by kernel_rfl))
  f151 := Tryd.func99.trans (congrArg some (by kernel_rfl))
  f152 := Tryd.func109.trans (congrArg some (by kernel_rfl))
  f217 := Tryd.func122.trans (congrArg some (by kernel_rfl))
  f224 := Tryd.func117.trans (congrArg some (by kernel_rfl))
  f225 := Tryd.func118.trans (congrArg some (by kernel_rfl))
  f266 := Tryd.func123.trans (congrArg some (by kernel_rfl))
  t0 := Tryd.underlying0
  a0 := Tryd.isAgg0
  z0 := Tryd.sizeOf0
  v0 := Tryd.zeroValue0
  t3 := Tryd.underlying3
  a3 := Tryd.isAgg3
  z3 := Tryd.sizeOf3
  v3 := Tryd.zeroValue3
  t4 := Tryd.underlying4
  a4 := Tryd.isAgg4
  z4 := Tryd.sizeOf4
  v4 := Tryd.zeroValue4
  t5 := Tryd.underlying5
  a5 := Tryd.isAgg5
  z5 := Tryd.sizeOf5
  v5 := Tryd.zeroValue5
  t9 := Tryd.underlying9
  a9 := Tryd.isAgg9
  z9 := Tryd.sizeOf9
  v9 := Tryd.zeroValue9
  t21 := Tryd.underlying21
  a21 := Tryd.isAgg21
  z21 := Tryd.sizeOf21
  v21 := Tryd.zeroValue21
  t46 := Tryd.underlying122
  a46 := Tryd.isAgg122
  z46 := Tryd.sizeOf122
  v46 := Tryd.zeroValue122 }
open Go.RowKit Go.Lib in
theorem Tryd.strings_ContainsRune_ascii (s : ByteArray) (r : Int) (w : World) (h0 : 0 ≤ r) (h1 : r < 128) :
    Calls Tryd.prog 99 #[.string s, .int .i32 r] w fun e w' => e = .returned (.bool (decide (0 ≤ Lib.indexByte s.data.toList r.toNat.toUInt8))) ∧ w' = w := Any.strings_ContainsRune_ascii Tryd.lays151 s r w h0 h1
def Tryd.lays226_ren : Go.Shelf.Ren := ⟨fun | 226 => 110 | n => n, fun | 3 => 3 | 4 => 4 | n => n, fun | n => n⟩
theorem Tryd.lays226 : Go.Proofs.Lays.n226 Tryd.prog Tryd.lays226_ren := {
  mixed := by kernel_rfl
  f226 := Tryd.func110.trans (congrArg some (by kernel_rfl))
  t3 := Tryd.underlying3
  a3 := Tryd.isAgg3
  z3 := Tryd.sizeOf3
  v3 := Tryd.zeroValue3
  t4 := Tryd.underlying4
  a4 := Tryd.isAgg4
  z4 := Tryd.sizeOf4
  v4 := Tryd.zeroValue4 }
open Go.RowKit Go.Lib in
theorem Tryd.strings_shouldUseASCIISet (n : Int) (w : World) :
    Calls Tryd.prog 110 #[.int .i64 n] w fun e w' => e = .returned (.bool (decide (8 < n))) ∧ w' = w := Any.strings_shouldUseASCIISet Tryd.lays226 n w
def Tryd.lays153_ren : Go.Shelf.Ren := ⟨fun | 153 => 100 | 152 => 109 | 226 => 110 | 227 => 103 | 228 => 111 | 137 => 115 | 119 => 116 | 224 => 117 | 225 => 118 | 217 => 122 | 266 => 123 | n => n, fun | 9 => 9 | 3 => 3 | 4 => 4 | 5 => 5 | 21 => 21 | 117 => 149 | 116 => 148 | 0 => 0 | 46 => 122 | 124 => 152 | n => n, fun | n => n⟩
theorem Tryd.lays153 : Go.Proofs.Lays.n153 Tryd.prog Tryd.lays153_ren := {
  mixed := by kernel_rfl
  f119 := Tryd.func116.trans (congrArg some (by kernel_rfl))
  f137 := Tryd.func115.trans (congrArg some (by kernel_rfl))
  f152 := Tryd.func109.trans (congrArg some (by kernel_rfl))
  f153 := Tryd.func100.trans (congrArg some (by kernel_rfl))
  f217 := Tryd.func122.trans (congrArg some (by kernel_rfl))
  f224 := Tryd.func117.trans (congrArg some (by kernel_rfl))
  f225 := Tryd.func118.trans (congrArg some (by kernel_rfl))
  f226 := Tryd.func110.trans (congrArg some (by kernel_rfl))
  f227 := Tryd.func103.trans (congrArg some (by kernel_rfl))
  f228 := Tryd.func111.trans (congrArg some (by kernel_rfl))
  f266 := Tryd.func123.trans (congrArg some (by kernel_rfl))
  t0 := Tryd.underlying0
  a0 := Tryd.isAgg0
  z0 := Tryd.sizeOf0
  v0 := Tryd.zeroValue0
  t3 := Tryd.underlying3
  a3 := Tryd.isAgg3
  z3 := Tryd.sizeOf3
  v3 := Tryd.zeroValue3
  t4 := Tryd.underlying4
  a4 := Tryd.isAgg4
  z4 := Tryd.sizeOf4
  v4 := Tryd.zeroValue4
  t5 := Tryd.underlying5
  a5 := Tryd.isAgg5
  z5 := Tryd.sizeOf5
  v5 := Tryd.zeroValue5
  t9 := Tryd.underlying9
  a9 := Tryd.isAgg9
  z9 := Tryd.sizeOf9
  v9 := Tryd.zeroValue9
  t21 := Tryd.underlying21
  a21 := Tryd.isAgg21
  z21 := Tryd.sizeOf21
  v21 := Tryd.zeroValue21
  t46 := Tryd.underlying122
  a46 := Tryd.isAgg122
  z46 := Tryd.sizeOf122
  v46 := Tryd.zeroValue122
  t116 := Tryd.underlying148
  a116 := Tryd.isAgg148
  z116 := Tryd.sizeOf148
  t117 := Tryd.underlying149
  a117 := Tryd.isAgg149
  z117 := Tryd.sizeOf149
  v117 := Tryd.zeroValue149
  t124 := Tryd.underlying152
  a124 := Tryd.isAgg152
  z124 := Tryd.sizeOf152
  v124 := Tryd.zeroValue152 }
open Go.RowKit Go.Lib in
theorem Tryd.strings_IndexAny_none (s chars : ByteArray) (w : World) (h0 : chars.size = 0) :
    Calls Tryd.prog 100 #[.string s, .string chars] w fun e w' => e = .returned (.int .i64 (Lib.indexAny s.data.toList chars.data.toList)) ∧ w' = w := Any.strings_IndexAny_none Tryd.lays153 s chars w h0
open Go.RowKit Go.Lib in
theorem Tryd.strings_IndexAny_one (s chars : ByteArray) (w : World) (h1 : chars.size = 1) (hascii : ∀ (j : Nat) b, chars.data.toList[j]? = some b → b.toNat < 128) :
    Calls Tryd.prog 100 #[.string s, .string chars] w fun e w' => e = .returned (.int .i64 (Lib.indexAny s.data.toList chars.data.toList)) ∧ w' = w := Any.strings_IndexAny_one Tryd.lays153 s chars w h1 hascii
open Go.RowKit Go.Lib in
theorem Tryd.strings_IndexAny_short (s chars : ByteArray) (w : World) (h2 : 2 ≤ chars.size) (h8 : s.size ≤ 8) (hascii : ∀ (j : Nat) b, s.data.toList[j]? = some b → b.toNat < 128) :
    Calls Tryd.prog 100 #[.string s, .string chars] w fun e w' => e = .returned (.int .i64 (Lib.indexAny s.data.toList chars.data.toList)) ∧ ∃ pos, w' = w.iter s pos := Any.strings_IndexAny_short Tryd.lays153 s chars w h2 h8 hascii
def Tryd.lays227_ren : Go.Shelf.Ren := ⟨fun | 227 => 103 | n => n, fun | 9 => 9 | 116 => 148 | 4 => 4 | 0 => 0 | 3 => 3 | 5 => 5 | n => n, fun | n => n⟩
theorem Tryd.lays227 : Go.Proofs.Lays.n227 Tryd.prog Tryd.lays227_ren := {
  mixed := by kernel_rfl
  f227 := Tryd.func103.trans (congrArg some (by kernel_rfl))
  t0 := Tryd.underlying0
  a0 := Tryd.isAgg0
  z0 := Tryd.sizeOf0
  v0 := Tryd.zeroValue0
  t3 := Tryd.underlying3
  a3 := Tryd.isAgg3
  z3 := Tryd.sizeOf3
  v3 := Tryd.zeroValue3
  t4 := Tryd.underlying4
  a4 := Tryd.isAgg4
  z4 := Tryd.sizeOf4
  v4 := Tryd.zeroValue4
  t5 := Tryd.underlying5
  a5 := Tryd.isAgg5
  z5 := Tryd.sizeOf5
  v5 := Tryd.zeroValue5
  t9 := Tryd.underlying9
  a9 := Tryd.isAgg9
  z9 := Tryd.sizeOf9
  v9 := Tryd.zeroValue9
  t116 := Tryd.underlying148
  a116 := Tryd.isAgg148
  z116 := Tryd.sizeOf148 }
open Go.RowKit Go.Lib in
theorem Tryd.strings_makeASCIISet (hv116 : ∀ w, (zeroValue 148).run Tryd.prog w = .ok (.agg (Array.replicate 256 (.bool false))) w) (chars : ByteArray) (w : World) (hs : chars.size < 4294967281) (hascii : ∀ (j : Nat) b, chars.data.toList[j]? = some b → b.toNat < 128) :
    Calls Tryd.prog 103 #[.string chars] w fun e w' => e = .returned (.tuple #[.agg (Lib.setCells chars.data.toList), .bool true]) ∧ w' = w.alloc (.cells (Lib.setCells chars.data.toList) 148) := Any.strings_makeASCIISet Tryd.lays227 hv116 (by kernel_rfl) chars w hs hascii
def Tryd.lays228_ren : Go.Shelf.Ren := ⟨fun | 228 => 111 | n => n, fun | 124 => 152 | 5 => 5 | 4 => 4 | 0 => 0 | 116 => 148 | n => n, fun | n => n⟩
theorem Tryd.lays228 : Go.Proofs.Lays.n228 Tryd.prog Tryd.lays228_ren := {
  mixed := by kernel_rfl
  f228 := Tryd.func111.trans (congrArg some (by kernel_rfl))
  t0 := Tryd.underlying0
  a0 := Tryd.isAgg0
  z0 := Tryd.sizeOf0
  v0 := Tryd.zeroValue0
  t4 := Tryd.underlying4
  a4 := Tryd.isAgg4
  z4 := Tryd.sizeOf4
  v4 := Tryd.zeroValue4
  t5 := Tryd.underlying5
  a5 := Tryd.isAgg5
  z5 := Tryd.sizeOf5
  v5 := Tryd.zeroValue5
  t116 := Tryd.underlying148
  a116 := Tryd.isAgg148
  z116 := Tryd.sizeOf148
  t124 := Tryd.underlying152
  a124 := Tryd.isAgg152
  z124 := Tryd.sizeOf152
  v124 := Tryd.zeroValue152 }
open Go.RowKit Go.Lib in
theorem Tryd.asciiSet_contains (b : Nat) (x : UInt8) (v : Bool) (w : World) (hc : w.cell? ⟨b, x.toNat, none⟩ = some (.bool v)) :
    Calls Tryd.prog 111 #[.pointer (some ⟨b, 0, none⟩), .int .u8 x.toNat] w fun e w' => e = .returned (.bool v) ∧ w' = w := Any.asciiSet_contains Tryd.lays228 b x v w hc
open Go.RowKit Go.Lib in
theorem Tryd.strings_IndexAny_long (hv116 : ∀ w, (zeroValue 148).run Tryd.prog w = .ok (.agg (Array.replicate 256 (.bool false))) w) (s chars : ByteArray) (w : World) (h2 : 2 ≤ chars.size) (h8 : 8 < s.size) (hs : s.size < 4294967281) (hcs : chars.size < 4294967281) (hascii : ∀ (j : Nat) b, chars.data.toList[j]? = some b → b.toNat < 128) :
    Calls Tryd.prog 100 #[.string s, .string chars] w fun e w' => e = .returned (.int .i64 (Lib.indexAny s.data.toList chars.data.toList)) ∧ w' = ((w.alloc (.cells (Lib.setCells chars.data.toList) 148)).alloc (.cells (Lib.setCells chars.data.toList) 148)) := Any.strings_IndexAny_long Tryd.lays153 hv116 (by kernel_rfl) s chars w h2 h8 hs hcs hascii
open Go.RowKit Go.Lib in
theorem Tryd.strings_IndexAny (hv116 : ∀ w, (zeroValue 148).run Tryd.prog w = .ok (.agg (Array.replicate 256 (.bool false))) w) (s chars : ByteArray) (w : World) (hs : s.size < 4294967281) (hcs : chars.size < 4294967281) (has : ∀ (j : Nat) b, s.data.toList[j]? = some b → b.toNat < 128) (hac : ∀ (j : Nat) b, chars.data.toList[j]? = some b → b.toNat < 128) :
    Calls Tryd.prog 100 #[.string s, .string chars] w fun e w' => e = .returned (.int .i64 (Lib.indexAny s.data.toList chars.data.toList)) ∧ Below w.heap.size w w' := Any.strings_IndexAny Tryd.lays153 hv116 (by kernel_rfl) s chars w hs hcs has hac
def Tryd.lays150_ren : Go.Shelf.Ren := ⟨fun | 150 => 89 | 153 => 100 | 152 => 109 | 226 => 110 | 227 => 103 | 228 => 111 | 137 => 115 | 119 => 116 | 224 => 117 | 225 => 118 | 217 => 122 | 266 => 123 | n => n, fun | 9 => 9 | 4 => 4 | 3 => 3 | 5 => 5 | 21 => 21 | 117 => 149 | 116 => 148 | 0 => 0 | 46 => 122 | 124 => 152 | n => n, fun | n => n⟩
theorem Tryd.lays150 : Go.Proofs.Lays.n150 Tryd.prog Tryd.lays150_ren := {
  mixed := by kernel_rfl
  f119 := Tryd.func116.trans (congrArg some (by kernel_rfl))
  f137 := Tryd.func115.trans (congrArg some (by kernel_rfl))
  f150 := Tryd.func89.trans (congrArg some (by kernel_rfl))
  f152 := Tryd.func109.trans (congrArg some (by kernel_rfl))
  f153 := Tryd.func100.trans (congrArg some (by kernel_rfl))
  f217 := Tryd.func122.trans (congrArg some (by kernel_rfl))
  f224 := Tryd.func117.trans (congrArg some (by kernel_rfl))
  f225 := Tryd.func118.trans (congrArg some (by kernel_rfl))
  f226 := Tryd.func110.trans (congrArg some (by kernel_rfl))
  f227 := Tryd.func103.trans (congrArg some (by kernel_rfl))
  f228 := Tryd.func111.trans (congrArg some (by kernel_rfl))
  f266 := Tryd.func123.trans (congrArg some (by kernel_rfl))
  t0 := Tryd.underlying0
  a0 := Tryd.isAgg0
  z0 := Tryd.sizeOf0
  v0 := Tryd.zeroValue0
  t3 := Tryd.underlying3
  a3 := Tryd.isAgg3
  z3 := Tryd.sizeOf3
  v3 := Tryd.zeroValue3
  t4 := Tryd.underlying4
  a4 := Tryd.isAgg4
  z4 := Tryd.sizeOf4
  v4 := Tryd.zeroValue4
  t5 := Tryd.underlying5
  a5 := Tryd.isAgg5
  z5 := Tryd.sizeOf5
  v5 := Tryd.zeroValue5
  t9 := Tryd.underlying9
  a9 := Tryd.isAgg9
  z9 := Tryd.sizeOf9
  v9 := Tryd.zeroValue9
  t21 := Tryd.underlying21
  a21 := Tryd.isAgg21
  z21 := Tryd.sizeOf21
  v21 := Tryd.zeroValue21
  t46 := Tryd.underlying122
  a46 := Tryd.isAgg122
  z46 := Tryd.sizeOf122
  v46 := Tryd.zeroValue122
  t116 := Tryd.underlying148
  a116 := Tryd.isAgg148
  z116 := Tryd.sizeOf148
  t117 := Tryd.underlying149
  a117 := Tryd.isAgg149
  z117 := Tryd.sizeOf149
  v117 := Tryd.zeroValue149
  t124 := Tryd.underlying152
  a124 := Tryd.isAgg152
  z124 := Tryd.sizeOf152
  v124 := Tryd.zeroValue152 }
open Go.RowKit Go.Lib in
theorem Tryd.strings_ContainsAny (hv116 : ∀ w, (zeroValue 148).run Tryd.prog w = .ok (.agg (Array.replicate 256 (.bool false))) w) (s chars : ByteArray) (w : World) (hs : s.size < 4294967281) (hcs : chars.size < 4294967281) (has : ∀ (j : Nat) b, s.data.toList[j]? = some b → b.toNat < 128) (hac : ∀ (j : Nat) b, chars.data.toList[j]? = some b → b.toNat < 128) :
    Calls Tryd.prog 89 #[.string s, .string chars] w fun e w' => e = .returned (.bool (Lib.containsAny s.data.toList chars.data.toList)) ∧ Below w.heap.size w w' := Any.strings_ContainsAny Tryd.lays150 hv116 (by kernel_rfl) s chars w hs hcs has hac
open Go.RowKit Go.Lib in
theorem Tryd.strings_IndexAny_laid (s chars : ByteArray) (w : World) (hs : s.size < 4294967281) (hcs : chars.size < 4294967281) (has : ∀ (j : Nat) b, s.data.toList[j]? = some b → b.toNat < 128) (hac : ∀ (j : Nat) b, chars.data.toList[j]? = some b → b.toNat < 128) :
    Calls Tryd.prog 100 #[.string s, .string chars] w fun e w' => e = .returned (.int .i64 (Lib.indexAny s.data.toList chars.data.toList)) ∧ Below w.heap.size w w' := Any.strings_IndexAny_laid Tryd.lays153 (by kernel_rfl) s chars w hs hcs has hac
open Go.RowKit Go.Lib in
theorem Tryd.strings_ContainsAny_laid (s chars : ByteArray) (w : World) (hs : s.size < 4294967281) (hcs : chars.size < 4294967281) (has : ∀ (j : Nat) b, s.data.toList[j]? = some b → b.toNat < 128) (hac : ∀ (j : Nat) b, chars.data.toList[j]? = some b → b.toNat < 128) :
    Calls Tryd.prog 89 #[.string s, .string chars] w fun e w' => e = .returned (.bool (Lib.containsAny s.data.toList chars.data.toList)) ∧ Below w.heap.size w w' := Any.strings_ContainsAny_laid Tryd.lays150 (by kernel_rfl) s chars w hs hcs has hac
def Tryd.lays260_ren : Go.Shelf.Ren := ⟨fun | 260 => 119 | n => n, fun | 9 => 9 | 21 => 21 | 3 => 3 | 4 => 4 | 5 => 5 | 119 => 162 | 0 => 0 | 46 => 122 | 139 => 165 | 138 => 164 | n => n, fun | 3 => 4 | 4 => 5 | n => n⟩
theorem Tryd.lays260 : Go.Proofs.Lays.n260 Tryd.prog Tryd.lays260_ren := {
  mixed := by kernel_rfl
  f260 := Tryd.func119.trans (congrArg some (by kernel_rfl))
  t0 := Tryd.underlying0
  a0 := Tryd.isAgg0
  z0 := Tryd.sizeOf0
  v0 := Tryd.zeroValue0
  t3 := Tryd.underlying3
  a3 := Tryd.isAgg3
  z3 := Tryd.sizeOf3
  v3 := Tryd.zeroValue3
  t4 := Tryd.underlying4
  a4 := Tryd.isAgg4
  z4 := Tryd.sizeOf4
  v4 := Tryd.zeroValue4
  t5 := Tryd.underlying5
  a5 := Tryd.isAgg5
  z5 := Tryd.sizeOf5
  v5 := Tryd.zeroValue5
  t9 := Tryd.underlying9
  a9 := Tryd.isAgg9
  z9 := Tryd.sizeOf9
  v9 := Tryd.zeroValue9
  t21 := Tryd.underlying21
  a21 := Tryd.isAgg21
  z21 := Tryd.sizeOf21
  v21 := Tryd.zeroValue21
  t46 := Tryd.underlying122
  a46 := Tryd.isAgg122
  z46 := Tryd.sizeOf122
  v46 := Tryd.zeroValue122
  t119 := Tryd.underlying162
  a119 := Tryd.isAgg162
  z119 := Tryd.sizeOf162
  t138 := Tryd.underlying164
  a138 := Tryd.isAgg164
  z138 := Tryd.sizeOf164
  v138 := Tryd.zeroValue164
  t139 := Tryd.underlying165
  a139 := Tryd.isAgg165
  z139 := Tryd.sizeOf165
  v139 := Tryd.zeroValue165
  g3 := by kernel_rfl
  g4 := by kernel_rfl }
open Go.RowKit Go.Lib in
theorem Tryd.utf8_decodeRuneInStringSlow (s : ByteArray) (w : World) (hT : Lib.Utf8Tabs 4 5 w) :
    Calls Tryd.prog 119 #[.string s] w fun e w' => e = .returned (.tuple #[.int .i32 (Lib.decodeGo s).1, .int .i64 (Lib.decodeGo s).2]) ∧ Below w.heap.size w w' := Any.utf8_decodeRuneInStringSlow Tryd.lays260 s w hT
open Go.RowKit Go.Lib in
theorem Tryd.utf8_DecodeRuneInString (s : ByteArray) (w : World) (hT : Lib.Utf8Tabs 4 5 w) :
    Calls Tryd.prog 112 #[.string s] w fun e w' => e = .returned (.tuple #[.int .i32 (Lib.decodeGo s).1, .int .i64 (Lib.decodeGo s).2]) ∧ Below w.heap.size w w' := Any.utf8_DecodeRuneInString Tryd.lays197 s w hT
def Tryd.lays271_ren : Go.Shelf.Ren := ⟨fun | 271 => 113 | 120 => 120 | 197 => 112 | 260 => 119 | n => n, fun | 9 => 9 | 21 => 21 | 3 => 3 | 4 => 4 | 5 => 5 | 105 => 159 | 119 => 162 | 0 => 0 | 46 => 122 | 139 => 165 | 138 => 164 | n => n, fun | 3 => 4 | 4 => 5 | n => n⟩
theorem Tryd.lays271 : Go.Proofs.Lays.n271 Tryd.prog Tryd.lays271_ren := {
  mixed := by kernel_rfl
  f120 := Tryd.func120.trans (congrArg some (by kernel_rfl))
  f197 := Tryd.func112.trans (congrArg some (by kernel_rfl))
  f260 := Tryd.func119.trans (congrArg some (by kernel_rfl))
  f271 := Tryd.func113.trans (congrArg some (by kernel_rfl))
  t0 := Tryd.underlying0
  a0 := Tryd.isAgg0
  z0 := Tryd.sizeOf0
  v0 := Tryd.zeroValue0
  t3 := Tryd.underlying3
  a3 := Tryd.isAgg3
  z3 := Tryd.sizeOf3
  v3 := Tryd.zeroValue3
  t4 := Tryd.underlying4
  a4 := Tryd.isAgg4
  z4 := Tryd.sizeOf4
  v4 := Tryd.zeroValue4
  t5 := Tryd.underlying5
  a5 := Tryd.isAgg5
  z5 := Tryd.sizeOf5
  v5 := Tryd.zeroValue5
  t9 := Tryd.underlying9
  a9 := Tryd.isAgg9
  z9 := Tryd.sizeOf9
  v9 := Tryd.zeroValue9
  t21 := Tryd.underlying21
  a21 := Tryd.isAgg21
  z21 := Tryd.sizeOf21
  v21 := Tryd.zeroValue21
  t46 := Tryd.underlying122
  a46 := Tryd.isAgg122
  z46 := Tryd.sizeOf122
  v46 := Tryd.zeroValue122
  t105 := Tryd.underlying159
  a105 := Tryd.isAgg159
  z105 := Tryd.sizeOf159
  v105 := Tryd.zeroValue159
  t119 := Tryd.underlying162
  a119 := Tryd.isAgg162
  z119 := Tryd.sizeOf162
  t138 := Tryd.underlying164
  a138 := Tryd.isAgg164
  z138 := Tryd.sizeOf164
  v138 := Tryd.zeroValue164
  t139 := Tryd.underlying165
  a139 := Tryd.isAgg165
  z139 := Tryd.sizeOf165
  v139 := Tryd.zeroValue165
  g3 := by kernel_rfl
  g4 := by kernel_rfl }
open Go.RowKit Go.Lib in
theorem Tryd.utf8_DecodeLastRuneInString (s : ByteArray) (w : World) (hs : s.size ≤ 9223372036854775807) (hT : Lib.Utf8Tabs 4 5 w) :
    Calls Tryd.prog 113 #[.string s] w fun e w' => e = .returned (.tuple #[.int .i32 (Lib.decodeLastL s.data.toList).1, .int .i64 (Lib.decodeLastL s.data.toList).2]) ∧ Below w.heap.size w w' := Any.utf8_DecodeLastRuneInString Tryd.lays271 s w hs hT
end Go.Proofs.YtcadlpmopplkeaaDoor
