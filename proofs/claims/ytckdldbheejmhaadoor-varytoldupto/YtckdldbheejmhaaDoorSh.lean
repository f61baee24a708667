/- The library functions that are called, by their contracts. -/
import Derived.Shelf.Strings.Trim
import Derived.Shelf.Strings.SlTrimAscii
import Derived.Shelf.Strings.Search3
import Derived.Test.YtckdldbheejmhaaDoorProg
namespace Go.Proofs.YtckdldbheejmhaaDoor
open Go.Shelf
def Tryd.lays160_ren : Go.Shelf.Ren := ⟨fun | 160 => 23 | 232 => 28 | 231 => 27 | 227 => 29 | 234 => 31 | 233 => 30 | 236 => 33 | 235 => 32 | 228 => 39 | 271 => 41 | 151 => 40 | 197 => 37 | 120 => 46 | 152 => 45 | 260 => 43 | 137 => 51 | 119 => 52 | 224 => 49 | 225 => 48 | 217 => 47 | 266 => 53 | n => n, fun | 9 => 9 | 4 => 4 | 3 => 3 | 5 => 5 | 117 => 56 | 116 => 55 | 0 => 0 | 124 => 59 | 21 => 21 | 105 => 61 | 46 => 31 | 119 => 67 | 139 => 70 | 138 => 69 | n => n, fun | 3 => 0 | 4 => 1 | n => n⟩
theorem Tryd.lays160 : Go.Proofs.Lays.n160 Tryd.prog Tryd.lays160_ren := {
  mixed := by kernel_rfl
  f119 := Tryd.func52.trans (congrArg some (by kernel_rfl))
  f120 := Tryd.func46.trans (congrArg some (by kernel_rfl))
  f137 := Tryd.func51.trans (congrArg some (by kernel_rfl))
  f151 := Tryd.func40.trans (congrArg some (by kernel_rfl))
  f152 := Tryd.func45.trans (congrArg some (by kernel_rfl))
  f160 := Tryd.func23.trans (congrArg some (by kernel_rfl))
  f197 := Tryd.func37.trans (congrArg some (by kernel_rfl))
  f217 := Tryd.func47.trans (congrArg some (by kernel_rfl))
  f224 := Tryd.func49.trans (congrArg some (by kernel_rfl))
  f225 := Tryd.func48.trans (congrArg some (by kernel_rfl))
  f227 := Tryd.func29.trans (congrArg some (by kernel_rfl))
  f228 := Tryd.func39.trans (congrArg some (by kernel_rfl))
  f231 := Tryd.func27.trans (congrArg some (by kernel_rfl))
  f232 := Tryd.func28.trans (congrArg some (by kernel_rfl))
  f233 := Tryd.func30.trans (congrArg some (by kernel_rfl))
  f234 := Tryd.func31.trans (congrArg some (by kernel_rfl))
  f235 := Tryd.func32.trans (congrArg some (by kernel_rfl))
  f236 := Tryd.func33.trans (congrArg some (by kernel_rfl))
  f260 := Tryd.func43.trans (congrArg some (by kernel_rfl))
  f266 := Tryd.func53.trans (congrArg some (by kernel_rfl))
  f271 := Tryd.func41.trans (congrArg some (by kernel_rfl))
  t0 := Tryd.underlying0
  a0 := Tryd.isAgg0
  z0 := Tryd.sizeOf0
  v0 := Tryd.zeroValue0
  t3 := Tryd.underlying3
  a3 := Tryd.isAgg3
  z3 := Tryd.sizeOf3
  v3 := Tryd.zeroValue3
  t4 := Tryd.underlying4
  a4 := Tryd.isAgg4
  z4 := Tryd.sizeOf4
  v4 := Tryd.zeroValue4
  t5 := Tryd.underlying5
  a5 := Tryd.isAgg5
  z5 := Tryd.sizeOf5
  v5 := Tryd.zeroValue5
  t9 := Tryd.underlying9
  a9 := Tryd.isAgg9
  z9 := Tryd.sizeOf9
  v9 := Tryd.zeroValue9
  t21 := Tryd.underlying21
  a21 := Tryd.isAgg21
  z21 := Tryd.sizeOf21
  v21 := Tryd.zeroValue21
  t46 := Tryd.underlying31
  a46 := Tryd.isAgg31
  z46 := Tryd.sizeOf31
  v46 := Tryd.zeroValue31
  t105 := Tryd.underlying61
  a105 := Tryd.isAgg61
  z105 := Tryd.sizeOf61
  v105 := Tryd.zeroValue61
  t116 := Tryd.underlying55
  a116 := Tryd.isAgg55
  z116 := Tryd.sizeOf55
  t117 := Tryd.underlying56
  a117 := Tryd.isAgg56
  z117 := Tryd.sizeOf56
  v117 := Tryd.zeroValue56
  t119 := Tryd.underlying67
  a119 := Tryd.isAgg67
  z119 := Tryd.sizeOf67
  t124 := Tryd.underlying59
  a124 := Tryd.isAgg59
  z124 := Tryd.sizeOf59
  v124 := Tryd.zeroValue59
  t138 := Tryd.underlying69
  a138 := Tryd.isAgg69
  z138 := Tryd.sizeOf69
  v138 := Tryd.zeroValue69
  t139 := Tryd.underlying70
  a139 := Tryd.isAgg70
  z139 := Tryd.sizeOf70
  v139 := Tryd.zeroValue70
  g3 := by kernel_rfl
  g4 := by kernel_rfl }
open Go.RowKit in
theorem Tryd.strings_Trim_blanks (s : ByteArray) (w : World) (hs : s.size ≤ 9223372036854775807) :
    Calls Tryd.prog 23 #[.string s, .string ⟨#[32, 9]⟩] w fun e w' => e = .returned (.string ⟨(Lib.trimS s.data.toList [32, 9]).toArray⟩) ∧ Below w.heap.size w w' := Any.strings_Trim_laid Tryd.lays160 (by kernel_rfl) s ⟨#[32, 9]⟩ w hs (by decide) (ascii_of_all (by decide))
def Tryd.lays143_ren : Go.Shelf.Ren := ⟨fun | 143 => 38 | 219 => 44 | 217 => 47 | 225 => 48 | 224 => 49 | 267 => 50 | 266 => 53 | 314 => 54 | n => n, fun | 9 => 9 | 3 => 3 | 4 => 4 | 5 => 5 | 46 => 31 | 146 => 75 | 51 => 74 | n => n, fun | 1 => 2 | n => n⟩
theorem Tryd.lays143 : Go.Proofs.Lays.n143 Tryd.prog Tryd.lays143_ren := {
  mixed := by kernel_rfl
  f143 := Tryd.func38.trans (congrArg some (by kernel_rfl))
  f217 := Tryd.func47.trans (congrArg some (by kernel_rfl))
  f219 := Tryd.func44.trans (congrArg some (by kernel_rfl))
  f224 := Tryd.func49.trans (congrArg some (by kernel_rfl))
  f225 := Tryd.func48.trans (congrArg some (by kernel_rfl))
  f266 := Tryd.func53.trans (congrArg some (by kernel_rfl))
  f267 := Tryd.func50.trans (congrArg some (by kernel_rfl))
  f314 := Tryd.func54.trans (congrArg some (by kernel_rfl))
  t3 := Tryd.underlying3
  a3 := Tryd.isAgg3
  z3 := Tryd.sizeOf3
  v3 := Tryd.zeroValue3
  t4 := Tryd.underlying4
  a4 := Tryd.isAgg4
  z4 := Tryd.sizeOf4
  v4 := Tryd.zeroValue4
  t5 := Tryd.underlying5
  a5 := Tryd.isAgg5
  z5 := Tryd.sizeOf5
  v5 := Tryd.zeroValue5
  t9 := Tryd.underlying9
  a9 := Tryd.isAgg9
  z9 := Tryd.sizeOf9
  v9 := Tryd.zeroValue9
  t46 := Tryd.underlying31
  a46 := Tryd.isAgg31
  z46 := Tryd.sizeOf31
  v46 := Tryd.zeroValue31
  t51 := Tryd.underlying74
  a51 := Tryd.isAgg74
  z51 := Tryd.sizeOf74
  v51 := Tryd.zeroValue74
  t146 := Tryd.underlying75
  a146 := Tryd.isAgg75
  z146 := Tryd.sizeOf75
  v146 := Tryd.zeroValue75
  g1 := by kernel_rfl }
open Go.RowKit Go.Lib in
theorem Tryd.strings_Index_one (s : ByteArray) (c : UInt8) (w : World) :
    Calls Tryd.prog 38 #[.string s, .string ⟨#[c]⟩] w fun e w' => e = .returned (.int .i64 (Lib.indexByte s.data.toList c)) ∧ w' = w := Any.strings_Index_one Tryd.lays143 s c w
end Go.Proofs.YtckdldbheejmhaaDoor
