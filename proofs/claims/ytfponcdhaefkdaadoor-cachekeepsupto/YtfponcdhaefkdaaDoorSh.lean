/- The library functions that are called, by their contracts. -/
import Derived.Shelf.Strings.Trim
import Derived.Shelf.Strings.SlTrimAscii
import Derived.Shelf.Strings.Search3
import Derived.Test.YtfponcdhaefkdaaDoorProg
namespace Go.Proofs.YtfponcdhaefkdaaDoor
open Go.Shelf
def Tryd.lays160_ren : Go.Shelf.Ren := ⟨fun | 160 => 31 | 232 => 58 | 231 => 57 | 227 => 59 | 234 => 61 | 233 => 60 | 236 => 63 | 235 => 62 | 228 => 78 | 271 => 80 | 151 => 79 | 197 => 76 | 120 => 91 | 152 => 90 | 260 => 88 | 137 => 98 | 119 => 99 | 224 => 96 | 225 => 95 | 217 => 94 | 266 => 102 | n => n, fun | 9 => 9 | 4 => 4 | 3 => 3 | 5 => 5 | 117 => 107 | 116 => 106 | 0 => 0 | 124 => 110 | 21 => 21 | 105 => 122 | 46 => 134 | 119 => 133 | 139 => 137 | 138 => 136 | n => n, fun | 3 => 1 | 4 => 2 | n => n⟩
theorem Tryd.lays160 : Go.Proofs.Lays.n160 Tryd.prog Tryd.lays160_ren := {
  mixed := by kernel_rfl
  f119 := Tryd.func99.trans (congrArg some (by kernel_rfl))
  f120 := Tryd.func91.trans (congrArg some (by kernel_rfl))
  f137 := Tryd.func98.trans (congrArg some (by kernel_rfl))
  f151 := Tryd.func79.trans (congrArg some (by kernel_rfl))
  f152 := Tryd.func90.trans (congrArg some (by kernel_rfl))
  f160 := Tryd.func31.trans (congrArg some (by kernel_rfl))
  f197 := Tryd.func76.trans (congrArg some (by kernel_rfl))
  f217 := Tryd.func94.trans (congrArg some (by kernel_rfl))
  f224 := Tryd.func96.trans (congrArg some (by kernel_rfl))
  f225 := Tryd.func95.trans (congrArg some (by kernel_rfl))
  f227 := Tryd.func59.trans (congrArg some (by kernel_rfl))
  f228 := Tryd.func78.trans (congrArg some (by kernel_rfl))
  f231 := Tryd.func57.trans (congrArg some (by kernel_rfl))
  f232 := Tryd.func58.trans (congrArg some (by kernel_rfl))
  f233 := Tryd.func60.trans (congrArg some (by kernel_rfl))
  f234 := Tryd.func61.trans (congrArg some (by kernel_rfl))
  f235 := Tryd.func62.trans (congrArg some (by kernel_rfl))
  f236 := Tryd.func63.trans (congrArg some (by kernel_rfl))
  f260 := Tryd.func88.trans (congrArg some (by kernel_rfl))
  f266 := Tryd.func102.trans (congrArg some (by kernel_rfl))
  f271 := Tryd.func80.trans (congrArg some (by kernel_rfl))
  t0 := Tryd.underlying0
  a0 := Tryd.isAgg0
  z0 := Tryd.sizeOf0
  v0 := Tryd.zeroValue0
  t3 := Tryd.underlying3
  a3 := Tryd.isAgg3
  z3 := Tryd.sizeOf3
  v3 := Tryd.zeroValue3
  t4 := Tryd.underlying4
  a4 := Tryd.isAgg4
  z4 := Tryd.sizeOf4
  v4 := Tryd.zeroValue4
  t5 := Tryd.underlying5
  a5 := Tryd.isAgg5
  z5 := Tryd.sizeOf5
  v5 := Tryd.zeroValue5
  t9 := Tryd.underlying9
  a9 := Tryd.isAgg9
  z9 := Tryd.sizeOf9
  v9 := Tryd.zeroValue9
  t21 := Tryd.underlying21
  a21 := Tryd.isAgg21
  z21 := Tryd.sizeOf21
  v21 := Tryd.zeroValue21
  t46 := Tryd.underlying134
  a46 := Tryd.isAgg134
  z46 := Tryd.sizeOf134
  v46 := Tryd.zeroValue134
  t105 := Tryd.underlying122
  a105 := Tryd.isAgg122
  z105 := Tryd.sizeOf122
  v105 := Tryd.zeroValue122
  t116 := Tryd.underlying106
  a116 := Tryd.isAgg106
  z116 := Tryd.sizeOf106
  t117 := Tryd.underlying107
  a117 := Tryd.isAgg107
  z117 := Tryd.sizeOf107
  v117 := Tryd.zeroValue107
  t119 := Tryd.underlying133
  a119 := Tryd.isAgg133
  z119 := Tryd.sizeOf133
  t124 := Tryd.underlying110
  a124 := Tryd.isAgg110
  z124 := Tryd.sizeOf110
  v124 := Tryd.zeroValue110
  t138 := Tryd.underlying136
  a138 := Tryd.isAgg136
  z138 := Tryd.sizeOf136
  v138 := Tryd.zeroValue136
  t139 := Tryd.underlying137
  a139 := Tryd.isAgg137
  z139 := Tryd.sizeOf137
  v139 := Tryd.zeroValue137
  g3 := by kernel_rfl
  g4 := by kernel_rfl }
open Go.RowKit in
theorem Tryd.strings_Trim_blanks (s : ByteArray) (w : World) (hs : s.size ≤ 9223372036854775807) :
    Calls Tryd.prog 31 #[.string s, .string ⟨#[32, 9]⟩] w fun e w' => e = .returned (.string ⟨(Lib.trimS s.data.toList [32, 9]).toArray⟩) ∧ Below w.heap.size w w' := Any.strings_Trim_laid Tryd.lays160 (by kernel_rfl) s ⟨#[32, 9]⟩ w hs (by decide) (ascii_of_all (by decide))
def Tryd.lays143_ren : Go.Shelf.Ren := ⟨fun | 143 => 77 | 219 => 89 | 217 => 94 | 225 => 95 | 224 => 96 | 267 => 97 | 266 => 102 | 314 => 103 | n => n, fun | 9 => 9 | 3 => 3 | 4 => 4 | 5 => 5 | 46 => 134 | 146 => 142 | 51 => 141 | n => n, fun | 1 => 3 | n => n⟩
theorem Tryd.lays143 : Go.Proofs.Lays.n143 Tryd.prog Tryd.lays143_ren := {
  mixed := by kernel_rfl
  f143 := Tryd.func77.trans (congrArg some (by kernel_rfl))
  f217 := Tryd.func94.trans (congrArg some (by kernel_rfl))
  f219 := Tryd.func89.trans (congrArg some (by kernel_rfl))
  f224 := Tryd.func96.trans (congrArg some (by kernel_rfl))
  f225 := Tryd.func95.trans (congrArg some (by kernel_rfl))
  f266 := Tryd.func102.trans (congrArg some (by kernel_rfl))
  f267 := Tryd.func97.trans (congrArg some (by kernel_rfl))
  f314 := Tryd.func103.trans (congrArg some (by kernel_rfl))
  t3 := Tryd.underlying3
  a3 := Tryd.isAgg3
  z3 := Tryd.sizeOf3
  v3 := Tryd.zeroValue3
  t4 := Tryd.underlying4
  a4 := Tryd.isAgg4
  z4 := Tryd.sizeOf4
  v4 := Tryd.zeroValue4
  t5 := Tryd.underlying5
  a5 := Tryd.isAgg5
  z5 := Tryd.sizeOf5
  v5 := Tryd.zeroValue5
  t9 := Tryd.underlying9
  a9 := Tryd.isAgg9
  z9 := Tryd.sizeOf9
  v9 := Tryd.zeroValue9
  t46 := Tryd.underlying134
  a46 := Tryd.isAgg134
  z46 := Tryd.sizeOf134
  v46 := Tryd.zeroValue134
  t51 := Tryd.underlying141
  a51 := Tryd.isAgg141
  z51 := Tryd.sizeOf141
  v51 := Tryd.zeroValue141
  t146 := Tryd.underlying142
  a146 := Tryd.isAgg142
  z146 := Tryd.sizeOf142
  v146 := Tryd.zeroValue142
  g1 := by kernel_rfl }
open Go.RowKit Go.Lib in
theorem Tryd.strings_Index_one (s : ByteArray) (c : UInt8) (w : World) :
    Calls Tryd.prog 77 #[.string s, .string ⟨#[c]⟩] w fun e w' => e = .returned (.int .i64 (Lib.indexByte s.data.toList c)) ∧ w' = w := Any.strings_Index_one Tryd.lays143 s c w
end Go.Proofs.YtfponcdhaefkdaaDoor
