/- The library functions that are called, by their contracts. -/
import Derived.Shelf.Strings.Builder1
import Derived.Shelf.Strings.Builder2
import Derived.Shelf.Strings.OnBuilder
import Derived.Shelf.Small.Strs
import Derived.Shelf.Small.Wraps
import Derived.Shelf.Strings.BuilderF
import Derived.Shelf.Strings.BuilderK
import Derived.Shelf.Strconv.Itoa0
import Derived.Shelf.Strconv.Itoa1
import Derived.Shelf.LaysM
import Derived.Shelf.Strconv.Itoa2
import Derived.Shelf.Strconv.Itoa3
import Derived.Shelf.Strconv.Itoa4
import Derived.Shelf.Strconv.ParseIntEmpty
import Derived.Shelf.Strconv.Clone
import Derived.Shelf.Strconv.SyntaxError
import Derived.Shelf.LaysC
import Derived.Shelf.Strconv.ToError
import Derived.Shelf.Strconv.Lower
import Derived.Shelf.Strconv.ParseUint10
import Derived.Shelf.Strconv.ParseUint10Empty
import Derived.Shelf.Strconv.ParseUint10Any
import Derived.Shelf.Strconv.ParseInt10
import Derived.Shelf.Strconv.RangeError
import Derived.Shelf.Strconv.ToErrorRange
import Derived.Shelf.Strconv.ParseUintEmpty
import Derived.Shelf.Strconv.ParseUint10b64
import Derived.Shelf.Strconv.ParseUint10b32
import Derived.Shelf.Strconv.ParseUint10b16
import Derived.Shelf.Strconv.ParseUint10b8
import Derived.Shelf.Strconv.ParseUint10At
import Derived.Shelf.Strconv.ParseInt10At64
import Derived.Shelf.Strconv.ParseInt10At32
import Derived.Shelf.Strconv.ParseInt10At16
import Derived.Shelf.Strconv.ParseInt10At8
import Derived.Shelf.Strconv.ParseInt10All
import Derived.Shelf.Strconv.ParseIntPublic10
import Derived.Shelf.Strconv.ErrVarParseInt
import Derived.Shelf.Strings.Search1
import Derived.Shelf.Strings.Search2
import Derived.Shelf.Strings.Cut
import Derived.Shelf.Strings.Shaped
import Derived.Shelf.Strings.Prefix
import Derived.Test.YtghppkfopglgaaaGreatDoorProg
namespace Go.Proofs.YtghppkfopglgaaaGreatDoor
open Go.Shelf
def Tryz.lays170_ren : Go.Shelf.Ren := ⟨fun | 170 => 47 | n => n, fun | 70 => 76 | 3 => 3 | 0 => 0 | 72 => 78 | 37 => 24 | 5 => 5 | n => n, fun | n => n⟩
theorem Tryz.lays170 : Go.Proofs.Lays.n170 Tryz.prog Tryz.lays170_ren := {
  mixed := by kernel_rfl
  f170 := Tryz.func47.trans (congrArg some (by kernel_rfl))
  t0 := Tryz.underlying0
  a0 := Tryz.isAgg0
  z0 := Tryz.sizeOf0
  v0 := Tryz.zeroValue0
  t3 := Tryz.underlying3
  a3 := Tryz.isAgg3
  z3 := Tryz.sizeOf3
  v3 := Tryz.zeroValue3
  t37 := Tryz.underlying24
  a37 := Tryz.isAgg24
  z37 := Tryz.sizeOf24
  v37 := Tryz.zeroValue24
  t70 := Tryz.underlying76
  a70 := Tryz.isAgg76
  z70 := Tryz.sizeOf76
  v70 := Tryz.zeroValue76
  t72 := Tryz.underlying78
  a72 := Tryz.isAgg78
  z72 := Tryz.sizeOf78
  v72 := Tryz.zeroValue78 }
def Tryz.lays169_ren : Go.Shelf.Ren := ⟨fun | 169 => 23 | n => n, fun | 70 => 76 | 9 => 9 | 0 => 0 | 72 => 78 | 37 => 24 | 127 => 104 | 3 => 3 | 5 => 5 | n => n, fun | n => n⟩
theorem Tryz.lays169 : Go.Proofs.Lays.n169 Tryz.prog Tryz.lays169_ren := {
  mixed := by kernel_rfl
  f169 := Tryz.func23.trans (congrArg some (by kernel_rfl))
  t0 := Tryz.underlying0
  a0 := Tryz.isAgg0
  z0 := Tryz.sizeOf0
  v0 := Tryz.zeroValue0
  t3 := Tryz.underlying3
  a3 := Tryz.isAgg3
  z3 := Tryz.sizeOf3
  v3 := Tryz.zeroValue3
  t9 := Tryz.underlying9
  a9 := Tryz.isAgg9
  z9 := Tryz.sizeOf9
  v9 := Tryz.zeroValue9
  t37 := Tryz.underlying24
  a37 := Tryz.isAgg24
  z37 := Tryz.sizeOf24
  v37 := Tryz.zeroValue24
  t70 := Tryz.underlying76
  a70 := Tryz.isAgg76
  z70 := Tryz.sizeOf76
  v70 := Tryz.zeroValue76
  t72 := Tryz.underlying78
  a72 := Tryz.isAgg78
  z72 := Tryz.sizeOf78
  v72 := Tryz.zeroValue78
  t127 := Tryz.underlying104
  a127 := Tryz.isAgg104
  z127 := Tryz.sizeOf104
  v127 := Tryz.zeroValue104 }
theorem Tryz.Builder_Extra_169 : Builder.Extra Tryz.prog Tryz.lays169_ren := {
  sizeBuilder := by kernel_rfl
  liesBuilder := by kernel_rfl
  t5 := Tryz.underlying5
  a5 := Tryz.isAgg5
  z5 := Tryz.sizeOf5
  v5 := Tryz.zeroValue5
  infoByte := by kernel_rfl
  cellsByte := by kernel_rfl
  sizeByte := by kernel_rfl
  neB5 := by decide }
def Tryz.lays156_ren : Go.Shelf.Ren := ⟨fun | 156 => 33 | 165 => 51 | 166 => 22 | 169 => 23 | 240 => 39 | 241 => 80 | 276 => 54 | 277 => 105 | n => n, fun | 31 => 43 | 9 => 9 | 3 => 3 | 4 => 4 | 0 => 0 | 20 => 20 | 72 => 78 | 76 => 83 | 70 => 76 | 37 => 24 | 75 => 80 | 127 => 104 | 164 => 127 | 5 => 5 | 80 => 86 | n => n, fun | n => n⟩
theorem Tryz.lays156 : Go.Proofs.Lays.n156 Tryz.prog Tryz.lays156_ren := {
  mixed := by kernel_rfl
  f156 := Tryz.func33.trans (congrArg some (by kernel_rfl))
  f165 := Tryz.func51.trans (congrArg some (by kernel_rfl))
  f166 := Tryz.func22.trans (congrArg some (by kernel_rfl))
  f169 := Tryz.func23.trans (congrArg some (by kernel_rfl))
  f240 := Tryz.func39.trans (congrArg some (by kernel_rfl))
  f241 := Tryz.func80.trans (congrArg some (by kernel_rfl))
  f276 := Tryz.func54.trans (congrArg some (by kernel_rfl))
  f277 := Tryz.func105.trans (congrArg some (by kernel_rfl))
  t0 := Tryz.underlying0
  a0 := Tryz.isAgg0
  z0 := Tryz.sizeOf0
  v0 := Tryz.zeroValue0
  t3 := Tryz.underlying3
  a3 := Tryz.isAgg3
  z3 := Tryz.sizeOf3
  v3 := Tryz.zeroValue3
  t4 := Tryz.underlying4
  a4 := Tryz.isAgg4
  z4 := Tryz.sizeOf4
  v4 := Tryz.zeroValue4
  t9 := Tryz.underlying9
  a9 := Tryz.isAgg9
  z9 := Tryz.sizeOf9
  v9 := Tryz.zeroValue9
  t20 := Tryz.underlying20
  a20 := Tryz.isAgg20
  z20 := Tryz.sizeOf20
  v20 := Tryz.zeroValue20
  t31 := Tryz.underlying43
  a31 := Tryz.isAgg43
  z31 := Tryz.sizeOf43
  v31 := Tryz.zeroValue43
  t37 := Tryz.underlying24
  a37 := Tryz.isAgg24
  z37 := Tryz.sizeOf24
  v37 := Tryz.zeroValue24
  t70 := Tryz.underlying76
  a70 := Tryz.isAgg76
  z70 := Tryz.sizeOf76
  v70 := Tryz.zeroValue76
  t72 := Tryz.underlying78
  a72 := Tryz.isAgg78
  z72 := Tryz.sizeOf78
  v72 := Tryz.zeroValue78
  t75 := Tryz.underlying80
  a75 := Tryz.isAgg80
  z75 := Tryz.sizeOf80
  v75 := Tryz.zeroValue80
  t76 := Tryz.underlying83
  a76 := Tryz.isAgg83
  z76 := Tryz.sizeOf83
  v76 := Tryz.zeroValue83
  t127 := Tryz.underlying104
  a127 := Tryz.isAgg104
  z127 := Tryz.sizeOf104
  v127 := Tryz.zeroValue104
  t164 := Tryz.underlying127
  a164 := Tryz.isAgg127
  z164 := Tryz.sizeOf127
  v164 := Tryz.zeroValue127 }
theorem Tryz.Builder_Extra_156 : Builder.Extra Tryz.prog Tryz.lays156_ren := {
  sizeBuilder := by kernel_rfl
  liesBuilder := by kernel_rfl
  t5 := Tryz.underlying5
  a5 := Tryz.isAgg5
  z5 := Tryz.sizeOf5
  v5 := Tryz.zeroValue5
  infoByte := by kernel_rfl
  cellsByte := by kernel_rfl
  sizeByte := by kernel_rfl
  neB5 := by decide }
open Go.RowKit in
theorem Tryz.strings_Join_none (a : Option Addr) (c : Nat) (sep : ByteArray) (w : World) :
    Calls Tryz.prog 33 #[.slice a 0 c, .string sep] w fun e w' => e = .returned (.string ⟨#[]⟩) ∧ w' = w := Any.strings_Join_none Tryz.lays156 Tryz.Builder_Extra_156 a c sep w
open Go.RowKit in
theorem Tryz.strings_Join (bk o c : Nat) (xs : List ByteArray) (sep : ByteArray) (w : World) (hcells : ∀ (j : Nat) x, xs[j]? = some x → w.cell? ⟨bk, o + j, none⟩ = some (.string x)) (hbk : bk < w.heap.size) (hN : xs.length ≤ 140737488355328) (hcap : xs.length ≤ c) (hlen : (Lib.join (xs.map (·.data.toList)) sep.data.toList).length ≤ 140737488355328) :
    Calls Tryz.prog 33 #[.slice (some ⟨bk, o, none⟩) xs.length c, .string sep] w fun e w' => e = .returned (.string ⟨(Lib.join (xs.map (·.data.toList)) sep.data.toList).toArray⟩) ∧ Below w.heap.size w w' := Any.strings_Join Tryz.lays156 Tryz.Builder_Extra_156 bk o c xs sep w hcells hbk hN hcap hlen
def Tryz.lays137_ren : Go.Shelf.Ren := ⟨fun | 137 => 56 | 217 => 81 | 266 => 106 | n => n, fun | 9 => 9 | 5 => 5 | 3 => 3 | n => n, fun | n => n⟩
theorem Tryz.lays137 : Go.Proofs.Lays.n137 Tryz.prog Tryz.lays137_ren := {
  mixed := by kernel_rfl
  f137 := Tryz.func56.trans (congrArg some (by kernel_rfl))
  f217 := Tryz.func81.trans (congrArg some (by kernel_rfl))
  f266 := Tryz.func106.trans (congrArg some (by kernel_rfl))
  t3 := Tryz.underlying3
  a3 := Tryz.isAgg3
  z3 := Tryz.sizeOf3
  v3 := Tryz.zeroValue3
  t5 := Tryz.underlying5
  a5 := Tryz.isAgg5
  z5 := Tryz.sizeOf5
  v5 := Tryz.zeroValue5
  t9 := Tryz.underlying9
  a9 := Tryz.isAgg9
  z9 := Tryz.sizeOf9
  v9 := Tryz.zeroValue9 }
open Go.RowKit in
theorem Tryz.strings_IndexByte (s : ByteArray) (c : Int) (w : World) :
    Calls Tryz.prog 56 #[.string s, .int .u8 c] w fun e w' => e = .returned (.int .i64 (Lib.indexByte s.data.toList c.toNat.toUInt8)) ∧ w' = w := Any.strings_IndexByte Tryz.lays137 s c w
def Tryz.lays103_ren : Go.Shelf.Ren := ⟨fun | 103 => 68 | 210 => 94 | 206 => 66 | n => n, fun | 9 => 9 | 4 => 4 | 24 => 136 | 3 => 3 | n => n, fun | n => n⟩
theorem Tryz.lays103 : Go.Proofs.Lays.n103 Tryz.prog Tryz.lays103_ren := {
  mixed := by kernel_rfl
  f103 := Tryz.func68.trans (congrArg some (by kernel_rfl))
  f206 := Tryz.func66.trans (congrArg some (by kernel_rfl))
  f210 := Tryz.func94.trans (congrArg some (by kernel_rfl))
  t3 := Tryz.underlying3
  a3 := Tryz.isAgg3
  z3 := Tryz.sizeOf3
  v3 := Tryz.zeroValue3
  t4 := Tryz.underlying4
  a4 := Tryz.isAgg4
  z4 := Tryz.sizeOf4
  v4 := Tryz.zeroValue4
  t9 := Tryz.underlying9
  a9 := Tryz.isAgg9
  z9 := Tryz.sizeOf9
  v9 := Tryz.zeroValue9
  t24 := Tryz.underlying136
  a24 := Tryz.isAgg136
  z24 := Tryz.sizeOf136
  v24 := Tryz.zeroValue136 }
open Go.RowKit in
theorem Tryz.strings_CutPrefix (s p : ByteArray) (w : World) :
    Calls Tryz.prog 68 #[.string s, .string p] w fun e w' => e = .returned (.tuple #[.string ⟨(Lib.trimPrefix s.data.toList p.data.toList).toArray⟩, .bool (Lib.hasPrefix s.data.toList p.data.toList)]) ∧ w' = w := Any.strings_CutPrefix Tryz.lays103 s p w
open Go.RowKit in
theorem Tryz.Builder_Len_f (B b : Nat) (bs : List Value) (w : World) (h : Lib.IsBuilderF 78 5 B b bs w) :
    Calls Tryz.prog 47 #[.pointer (some ⟨b, 0, none⟩)] w fun e w' => e = .returned (.int .i64 bs.length) ∧ w' = w := Any.Builder_Len_f Tryz.lays170 B b bs w h
open Go.RowKit in
theorem Tryz.Builder_String_any_k (B b : Nat) (l : List UInt8) (w : World) (h : Lib.IsBuilderF 78 5 B b (Lib.byteCells l) w) (hBw : B ≤ w.heap.size) :
    Calls Tryz.prog 23 #[.pointer (some ⟨b, 0, none⟩)] w fun e w' => e = .returned (.string ⟨l.toArray⟩) ∧ (Lib.IsBuilderF 78 5 B b (Lib.byteCells l) w' ∧ Below B w w' ∧ Lib.OthersKept 5 (some b) w w') := Any.Builder_String_any_k Tryz.lays169 Tryz.Builder_Extra_169 B b l w h hBw
def Tryz.laysM171_ren : Go.Shelf.Ren := ⟨fun | 171 => 30 | 243 => 49 | 246 => 50 | 283 => 76 | 284 => 77 | 285 => 78 | 286 => 79 | 129 => 101 | 317 => 100 | 318 => 102 | 319 => 103 | 320 => 104 | 337 => 112 | 338 => 113 | n => n, fun | 3 => 3 | 9 => 9 | 2 => 2 | 4 => 4 | 171 => 143 | 0 => 0 | 53 => 124 | 37 => 24 | 5 => 5 | 173 => 146 | 212 => 167 | 51 => 168 | 20 => 20 | 213 => 169 | 46 => 85 | 232 => 183 | 233 => 184 | n => n, fun | 17 => 2 | 18 => 4 | 19 => 5 | n => n⟩
theorem Tryz.laysM171 : Go.Proofs.LaysM.n171 Tryz.prog Tryz.laysM171_ren := {
  mixed := by kernel_rfl
  f129 := Tryz.func101.trans (congrArg some (by kernel_rfl))
  f171 := Tryz.func30.trans (congrArg some (by kernel_rfl))
  f243 := Tryz.func49.trans (congrArg some (by kernel_rfl))
  f246 := Tryz.func50.trans (congrArg some (by kernel_rfl))
  f283 := Tryz.func76.trans (congrArg some (by kernel_rfl))
  f284 := Tryz.func77.trans (congrArg some (by kernel_rfl))
  f285 := Tryz.func78.trans (congrArg some (by kernel_rfl))
  f286 := Tryz.func79.trans (congrArg some (by kernel_rfl))
  f317 := Tryz.func100.trans (congrArg some (by kernel_rfl))
  f318 := Tryz.func102.trans (congrArg some (by kernel_rfl))
  f319 := Tryz.func103.trans (congrArg some (by kernel_rfl))
  f320 := Tryz.func104.trans (congrArg some (by kernel_rfl))
  f337 := Tryz.func112.trans (congrArg some (by kernel_rfl))
  f338 := Tryz.func113.trans (congrArg some (by kernel_rfl))
  t0 := Tryz.underlying0
  a0 := Tryz.isAgg0
  z0 := Tryz.sizeOf0
  v0 := Tryz.zeroValue0
  t2 := Tryz.underlying2
  a2 := Tryz.isAgg2
  z2 := Tryz.sizeOf2
  v2 := Tryz.zeroValue2
  t3 := Tryz.underlying3
  a3 := Tryz.isAgg3
  z3 := Tryz.sizeOf3
  v3 := Tryz.zeroValue3
  t4 := Tryz.underlying4
  a4 := Tryz.isAgg4
  z4 := Tryz.sizeOf4
  v4 := Tryz.zeroValue4
  t5 := Tryz.underlying5
  a5 := Tryz.isAgg5
  z5 := Tryz.sizeOf5
  v5 := Tryz.zeroValue5
  t9 := Tryz.underlying9
  a9 := Tryz.isAgg9
  z9 := Tryz.sizeOf9
  v9 := Tryz.zeroValue9
  t20 := Tryz.underlying20
  a20 := Tryz.isAgg20
  z20 := Tryz.sizeOf20
  v20 := Tryz.zeroValue20
  t37 := Tryz.underlying24
  a37 := Tryz.isAgg24
  z37 := Tryz.sizeOf24
  v37 := Tryz.zeroValue24
  t46 := Tryz.underlying85
  a46 := Tryz.isAgg85
  z46 := Tryz.sizeOf85
  v46 := Tryz.zeroValue85
  t51 := Tryz.underlying168
  a51 := Tryz.isAgg168
  z51 := Tryz.sizeOf168
  v51 := Tryz.zeroValue168
  t53 := Tryz.underlying124
  a53 := Tryz.isAgg124
  z53 := Tryz.sizeOf124
  v53 := Tryz.zeroValue124
  t171 := Tryz.underlying143
  a171 := Tryz.isAgg143
  z171 := Tryz.sizeOf143
  v171 := Tryz.zeroValue143
  t173 := Tryz.underlying146
  a173 := Tryz.isAgg146
  z173 := Tryz.sizeOf146
  v173 := Tryz.zeroValue146
  t212 := Tryz.underlying167
  a212 := Tryz.isAgg167
  z212 := Tryz.sizeOf167
  v212 := Tryz.zeroValue167
  t213 := Tryz.underlying169
  a213 := Tryz.isAgg169
  z213 := Tryz.sizeOf169
  t232 := Tryz.underlying183
  a232 := Tryz.isAgg183
  z232 := Tryz.sizeOf183
  v232 := Tryz.zeroValue183
  t233 := Tryz.underlying184
  a233 := Tryz.isAgg184
  z233 := Tryz.sizeOf184
  v233 := Tryz.zeroValue184
  g17 := by kernel_rfl
  g18 := by kernel_rfl
  g19 := by kernel_rfl
  i0 := by kernel_rfl
  i2 := by kernel_rfl
  i3 := by kernel_rfl
  i4 := by kernel_rfl
  i5 := by kernel_rfl
  i9 := by kernel_rfl
  i20 := by kernel_rfl
  i37 := by kernel_rfl
  i46 := by kernel_rfl
  i51 := by kernel_rfl
  i53 := by kernel_rfl
  i171 := by kernel_rfl
  i173 := by kernel_rfl
  i212 := by kernel_rfl
  i232 := by kernel_rfl
  i233 := by kernel_rfl
  m17 := by kernel_rfl
  m18 := by kernel_rfl
  m19 := by kernel_rfl }
open Go.RowKit Go.Sort Go.Lib in
theorem Tryz.strconv_Itoa (n : Int) (h0 : -9223372036854775808 ≤ n) (h1 : n ≤ 9223372036854775807) (w : World) (htab : Lib.TabIs Tryz.prog w "internal/strconv.uint64pow10" .u64 Lib.pow10Tab) :
    Calls Tryz.prog 30 #[.int .i64 n] w fun e w' => e = .returned (.string ⟨(Lib.itoa n).toArray⟩) ∧ ∃ k os, w' = grow (w.drewN k) os := Any.strconv_Itoa Tryz.laysM171 n h0 h1 w htab
def Tryz.laysM173_ren : Go.Shelf.Ren := ⟨fun | 173 => 31 | 246 => 50 | 283 => 76 | 284 => 77 | 285 => 78 | 286 => 79 | 129 => 101 | 317 => 100 | 318 => 102 | 319 => 103 | 320 => 104 | 337 => 112 | 338 => 113 | n => n, fun | 2 => 2 | 3 => 3 | 9 => 9 | 4 => 4 | 171 => 143 | 0 => 0 | 53 => 124 | 37 => 24 | 5 => 5 | 173 => 146 | 212 => 167 | 51 => 168 | 20 => 20 | 213 => 169 | 46 => 85 | 232 => 183 | 233 => 184 | n => n, fun | 17 => 2 | 18 => 4 | 19 => 5 | n => n⟩
theorem Tryz.laysM173 : Go.Proofs.LaysM.n173 Tryz.prog Tryz.laysM173_ren := {
  mixed := by kernel_rfl
  f129 := Tryz.func101.trans (congrArg some (by kernel_rfl))
  f173 := Tryz.func31.trans (congrArg some (by kernel_rfl))
  f246 := Tryz.func50.trans (congrArg some (by kernel_rfl))
  f283 := Tryz.func76.trans (congrArg some (by kernel_rfl))
  f284 := Tryz.func77.trans (congrArg some (by kernel_rfl))
  f285 := Tryz.func78.trans (congrArg some (by kernel_rfl))
  f286 := Tryz.func79.trans (congrArg some (by kernel_rfl))
  f317 := Tryz.func100.trans (congrArg some (by kernel_rfl))
  f318 := Tryz.func102.trans (congrArg some (by kernel_rfl))
  f319 := Tryz.func103.trans (congrArg some (by kernel_rfl))
  f320 := Tryz.func104.trans (congrArg some (by kernel_rfl))
  f337 := Tryz.func112.trans (congrArg some (by kernel_rfl))
  f338 := Tryz.func113.trans (congrArg some (by kernel_rfl))
  t0 := Tryz.underlying0
  a0 := Tryz.isAgg0
  z0 := Tryz.sizeOf0
  v0 := Tryz.zeroValue0
  t2 := Tryz.underlying2
  a2 := Tryz.isAgg2
  z2 := Tryz.sizeOf2
  v2 := Tryz.zeroValue2
  t3 := Tryz.underlying3
  a3 := Tryz.isAgg3
  z3 := Tryz.sizeOf3
  v3 := Tryz.zeroValue3
  t4 := Tryz.underlying4
  a4 := Tryz.isAgg4
  z4 := Tryz.sizeOf4
  v4 := Tryz.zeroValue4
  t5 := Tryz.underlying5
  a5 := Tryz.isAgg5
  z5 := Tryz.sizeOf5
  v5 := Tryz.zeroValue5
  t9 := Tryz.underlying9
  a9 := Tryz.isAgg9
  z9 := Tryz.sizeOf9
  v9 := Tryz.zeroValue9
  t20 := Tryz.underlying20
  a20 := Tryz.isAgg20
  z20 := Tryz.sizeOf20
  v20 := Tryz.zeroValue20
  t37 := Tryz.underlying24
  a37 := Tryz.isAgg24
  z37 := Tryz.sizeOf24
  v37 := Tryz.zeroValue24
  t46 := Tryz.underlying85
  a46 := Tryz.isAgg85
  z46 := Tryz.sizeOf85
  v46 := Tryz.zeroValue85
  t51 := Tryz.underlying168
  a51 := Tryz.isAgg168
  z51 := Tryz.sizeOf168
  v51 := Tryz.zeroValue168
  t53 := Tryz.underlying124
  a53 := Tryz.isAgg124
  z53 := Tryz.sizeOf124
  v53 := Tryz.zeroValue124
  t171 := Tryz.underlying143
  a171 := Tryz.isAgg143
  z171 := Tryz.sizeOf143
  v171 := Tryz.zeroValue143
  t173 := Tryz.underlying146
  a173 := Tryz.isAgg146
  z173 := Tryz.sizeOf146
  v173 := Tryz.zeroValue146
  t212 := Tryz.underlying167
  a212 := Tryz.isAgg167
  z212 := Tryz.sizeOf167
  v212 := Tryz.zeroValue167
  t213 := Tryz.underlying169
  a213 := Tryz.isAgg169
  z213 := Tryz.sizeOf169
  t232 := Tryz.underlying183
  a232 := Tryz.isAgg183
  z232 := Tryz.sizeOf183
  v232 := Tryz.zeroValue183
  t233 := Tryz.underlying184
  a233 := Tryz.isAgg184
  z233 := Tryz.sizeOf184
  v233 := Tryz.zeroValue184
  g17 := by kernel_rfl
  g18 := by kernel_rfl
  g19 := by kernel_rfl
  i0 := by kernel_rfl
  i2 := by kernel_rfl
  i3 := by kernel_rfl
  i4 := by kernel_rfl
  i5 := by kernel_rfl
  i9 := by kernel_rfl
  i20 := by kernel_rfl
  i37 := by kernel_rfl
  i46 := by kernel_rfl
  i51 := by kernel_rfl
  i53 := by kernel_rfl
  i171 := by kernel_rfl
  i173 := by kernel_rfl
  i212 := by kernel_rfl
  i232 := by kernel_rfl
  i233 := by kernel_rfl
  m17 := by kernel_rfl
  m18 := by kernel_rfl
  m19 := by kernel_rfl }
open Go.RowKit Go.Sort Go.Lib in
theorem Tryz.strconv_FormatInt_10 (n : Int) (h0 : -9223372036854775808 ≤ n) (h1 : n ≤ 9223372036854775807) (w : World) (htab : Lib.TabIs Tryz.prog w "internal/strconv.uint64pow10" .u64 Lib.pow10Tab) :
    Calls Tryz.prog 31 #[.int .i64 n, .int .i64 10] w fun e w' => e = .returned (.string ⟨(Lib.itoa n).toArray⟩) ∧ ∃ k os, w' = grow (w.drewN k) os := Any.strconv_FormatInt_10 Tryz.laysM173 n h0 h1 w htab
def Tryz.laysC174_ren : Go.Shelf.Ren := ⟨fun | 174 => 109 | 247 => 114 | 245 => 115 | 287 => 118 | 279 => 119 | 280 => 120 | 281 => 121 | 282 => 122 | 321 => 126 | 322 => 127 | 316 => 128 | 171 => 30 | 205 => 129 | 243 => 49 | 246 => 50 | 283 => 76 | 284 => 77 | 285 => 78 | 286 => 79 | 129 => 101 | 317 => 100 | 318 => 102 | 319 => 103 | 320 => 104 | 337 => 112 | 338 => 113 | n => n, fun | 9 => 9 | 3 => 3 | 2 => 2 | 75 => 80 | 85 => 174 | 4 => 4 | 167 => 185 | 5 => 5 | 53 => 124 | 175 => 186 | 46 => 85 | 168 => 188 | 37 => 24 | 0 => 0 | 210 => 193 | 21 => 21 | 127 => 104 | 145 => 199 | 143 => 197 | 171 => 143 | 173 => 146 | 212 => 167 | 51 => 168 | 20 => 20 | 213 => 169 | 232 => 183 | 233 => 184 | 80 => 86 | n => n, fun | 15 => 6 | 16 => 7 | 17 => 2 | 18 => 4 | 19 => 5 | n => n⟩
theorem Tryz.laysC174 : Go.Proofs.LaysC.n174 Tryz.prog Tryz.laysC174_ren := {
  mixed := by kernel_rfl
  f129 := Tryz.func101.trans (congrArg some (by kernel_rfl))
  f171 := Tryz.func30.trans (congrArg some (by kernel_rfl))
  f174 := Tryz.func109.trans (congrArg some (by kernel_rfl))
  f205 := Tryz.func129.trans (congrArg some (by kernel_rfl))
  f243 := Tryz.func49.trans (congrArg some (by kernel_rfl))
  f245 := Tryz.func115.trans (congrArg some (by kernel_rfl))
  f246 := Tryz.func50.trans (congrArg some (by kernel_rfl))
  f247 := Tryz.func114.trans (congrArg some (by kernel_rfl))
  f279 := Tryz.func119.trans (congrArg some (by kernel_rfl))
  f280 := Tryz.func120.trans (congrArg some (by kernel_rfl))
  f281 := Tryz.func121.trans (congrArg some (by kernel_rfl))
  f282 := Tryz.func122.trans (congrArg some (by kernel_rfl))
  f283 := Tryz.func76.trans (congrArg some (by kernel_rfl))
  f284 := Tryz.func77.trans (congrArg some (by kernel_rfl))
  f285 := Tryz.func78.trans (congrArg some (by kernel_rfl))
  f286 := Tryz.func79.trans (congrArg some (by kernel_rfl))
  f287 := Tryz.func118.trans (congrArg some (by kernel_rfl))
  f316 := Tryz.func128.trans (congrArg some (by kernel_rfl))
  f317 := Tryz.func100.trans (congrArg some (by kernel_rfl))
  f318 := Tryz.func102.trans (congrArg some (by kernel_rfl))
  f319 := Tryz.func103.trans (congrArg some (by kernel_rfl))
  f320 := Tryz.func104.trans (congrArg some (by kernel_rfl))
  f321 := Tryz.func126.trans (congrArg some (by kernel_rfl))
  f322 := Tryz.func127.trans (congrArg some (by kernel_rfl))
  f337 := Tryz.func112.trans (congrArg some (by kernel_rfl))
  f338 := Tryz.func113.trans (congrArg some (by kernel_rfl))
  t0 := Tryz.underlying0
  a0 := Tryz.isAgg0
  z0 := Tryz.sizeOf0
  v0 := Tryz.zeroValue0
  t2 := Tryz.underlying2
  a2 := Tryz.isAgg2
  z2 := Tryz.sizeOf2
  v2 := Tryz.zeroValue2
  t3 := Tryz.underlying3
  a3 := Tryz.isAgg3
  z3 := Tryz.sizeOf3
  v3 := Tryz.zeroValue3
  t4 := Tryz.underlying4
  a4 := Tryz.isAgg4
  z4 := Tryz.sizeOf4
  v4 := Tryz.zeroValue4
  t5 := Tryz.underlying5
  a5 := Tryz.isAgg5
  z5 := Tryz.sizeOf5
  v5 := Tryz.zeroValue5
  t9 := Tryz.underlying9
  a9 := Tryz.isAgg9
  z9 := Tryz.sizeOf9
  v9 := Tryz.zeroValue9
  t20 := Tryz.underlying20
  a20 := Tryz.isAgg20
  z20 := Tryz.sizeOf20
  v20 := Tryz.zeroValue20
  t21 := Tryz.underlying21
  a21 := Tryz.isAgg21
  z21 := Tryz.sizeOf21
  v21 := Tryz.zeroValue21
  t37 := Tryz.underlying24
  a37 := Tryz.isAgg24
  z37 := Tryz.sizeOf24
  v37 := Tryz.zeroValue24
  t46 := Tryz.underlying85
  a46 := Tryz.isAgg85
  z46 := Tryz.sizeOf85
  v46 := Tryz.zeroValue85
  t51 := Tryz.underlying168
  a51 := Tryz.isAgg168
  z51 := Tryz.sizeOf168
  v51 := Tryz.zeroValue168
  t53 := Tryz.underlying124
  a53 := Tryz.isAgg124
  z53 := Tryz.sizeOf124
  v53 := Tryz.zeroValue124
  t75 := Tryz.underlying80
  a75 := Tryz.isAgg80
  z75 := Tryz.sizeOf80
  v75 := Tryz.zeroValue80
  t85 := Tryz.underlying174
  a85 := Tryz.isAgg174
  z85 := Tryz.sizeOf174
  v85 := Tryz.zeroValue174
  t127 := Tryz.underlying104
  a127 := Tryz.isAgg104
  z127 := Tryz.sizeOf104
  v127 := Tryz.zeroValue104
  t143 := Tryz.underlying197
  a143 := Tryz.isAgg197
  z143 := Tryz.sizeOf197
  v143 := Tryz.zeroValue197
  t145 := Tryz.underlying199
  a145 := Tryz.isAgg199
  z145 := Tryz.sizeOf199
  v145 := Tryz.zeroValue199
  t167 := Tryz.underlying185
  a167 := Tryz.isAgg185
  z167 := Tryz.sizeOf185
  v167 := Tryz.zeroValue185
  t168 := Tryz.underlying188
  a168 := Tryz.isAgg188
  z168 := Tryz.sizeOf188
  v168 := Tryz.zeroValue188
  t171 := Tryz.underlying143
  a171 := Tryz.isAgg143
  z171 := Tryz.sizeOf143
  v171 := Tryz.zeroValue143
  t173 := Tryz.underlying146
  a173 := Tryz.isAgg146
  z173 := Tryz.sizeOf146
  v173 := Tryz.zeroValue146
  t175 := Tryz.underlying186
  a175 := Tryz.isAgg186
  z175 := Tryz.sizeOf186
  v175 := Tryz.zeroValue186
  t210 := Tryz.underlying193
  a210 := Tryz.isAgg193
  z210 := Tryz.sizeOf193
  v210 := Tryz.zeroValue193
  t212 := Tryz.underlying167
  a212 := Tryz.isAgg167
  z212 := Tryz.sizeOf167
  v212 := Tryz.zeroValue167
  t213 := Tryz.underlying169
  a213 := Tryz.isAgg169
  z213 := Tryz.sizeOf169
  t232 := Tryz.underlying183
  a232 := Tryz.isAgg183
  z232 := Tryz.sizeOf183
  v232 := Tryz.zeroValue183
  t233 := Tryz.underlying184
  a233 := Tryz.isAgg184
  z233 := Tryz.sizeOf184
  v233 := Tryz.zeroValue184
  g15 := by kernel_rfl
  g16 := by kernel_rfl
  g17 := by kernel_rfl
  g18 := by kernel_rfl
  g19 := by kernel_rfl
  t80 := Tryz.underlying86
  a80 := Tryz.isAgg86
  z80 := Tryz.sizeOf86
  v80 := Tryz.zeroValue86
  i0 := by kernel_rfl
  i2 := by kernel_rfl
  i3 := by kernel_rfl
  i4 := by kernel_rfl
  i5 := by kernel_rfl
  i9 := by kernel_rfl
  i20 := by kernel_rfl
  i21 := by kernel_rfl
  i37 := by kernel_rfl
  i46 := by kernel_rfl
  i51 := by kernel_rfl
  i53 := by kernel_rfl
  i75 := by kernel_rfl
  i80 := by kernel_rfl
  i85 := by kernel_rfl
  i127 := by kernel_rfl
  i143 := by kernel_rfl
  i145 := by kernel_rfl
  i167 := by kernel_rfl
  i168 := by kernel_rfl
  i171 := by kernel_rfl
  i173 := by kernel_rfl
  i175 := by kernel_rfl
  i210 := by kernel_rfl
  i212 := by kernel_rfl
  i232 := by kernel_rfl
  i233 := by kernel_rfl
  m15 := by kernel_rfl
  m16 := by kernel_rfl
  m17 := by kernel_rfl
  m18 := by kernel_rfl
  m19 := by kernel_rfl
  c0 := by kernel_rfl
  c2 := by kernel_rfl
  c3 := by kernel_rfl
  c4 := by kernel_rfl
  c5 := by kernel_rfl
  c9 := by kernel_rfl
  c20 := by kernel_rfl
  c21 := by kernel_rfl
  c37 := by kernel_rfl
  c46 := by kernel_rfl
  c51 := by kernel_rfl
  c53 := by kernel_rfl
  c75 := by kernel_rfl
  c80 := by kernel_rfl
  c85 := by kernel_rfl
  c127 := by kernel_rfl
  c143 := by kernel_rfl
  c145 := by kernel_rfl
  c167 := by kernel_rfl
  c168 := by kernel_rfl
  c171 := by kernel_rfl
  c173 := by kernel_rfl
  c175 := by kernel_rfl
  c210 := by kernel_rfl
  c212 := by kernel_rfl
  c213 := by kernel_rfl
  c232 := by kernel_rfl
  c233 := by kernel_rfl }
open Go.RowKit in
theorem Tryz.strconv_ParseInt_10_at64_ok (s : ByteArray) (hmax : s.size ≤ 9223372036854775806) (v : Int) (h : Lib.parseIntB 64 s.data.toList = .ok v) (w : World) :
    Calls Tryz.prog 109 #[.string s, .int .i64 10, .int .i64 64] w fun e w' => e = .returned (.tuple #[.int .i64 v, .nilIface]) ∧ (w' = w ∨ ∃ t, w' = Lib.bytesWorld w 5 t) := Any.strconv_ParseInt_10_at64_ok Tryz.laysC174 s hmax v h w
open Go.RowKit in
theorem Tryz.strconv_ParseInt_10_at64_syntax_var (s : ByteArray) (hlim : s.size ≤ 281474976710656) (h : Lib.parseIntB 64 s.data.toList = .«syntax») (tp : TypeId) (p : Value) (w : World) (hvar : w.var? Tryz.prog "strconv.ErrSyntax" = some #[.iface tp p]) :
    Calls Tryz.prog 109 #[.string s, .int .i64 10, .int .i64 64] w fun e w' => ∃ N, e = .returned (.tuple #[.int .i64 (0), .iface 188 (.pointer (some ⟨N, 0, none⟩))]) ∧ w.heap.size ≤ N ∧ w'.heap[N]? = some (.cells #[.string ⟨#[80, 97, 114, 115, 101, 73, 110, 116]⟩, .string s, .iface tp p] 193 (0, 0)) ∧ Below w.heap.size w w' := Any.strconv_ParseInt_10_at64_syntax_var Tryz.laysC174 s hlim h tp p w hvar
open Go.RowKit in
theorem Tryz.strconv_ParseInt_10_at64_range_var (s : ByteArray) (hlim : s.size ≤ 281474976710656) (h : Lib.parseIntB 64 s.data.toList = .range) (tp : TypeId) (p : Value) (w : World) (hvar : w.var? Tryz.prog "strconv.ErrRange" = some #[.iface tp p]) :
    Calls Tryz.prog 109 #[.string s, .int .i64 10, .int .i64 64] w fun e w' => ∃ N, e = .returned (.tuple #[.int .i64 (Lib.intSat 64 s.data.toList), .iface 188 (.pointer (some ⟨N, 0, none⟩))]) ∧ w.heap.size ≤ N ∧ w'.heap[N]? = some (.cells #[.string ⟨#[80, 97, 114, 115, 101, 73, 110, 116]⟩, .string s, .iface tp p] 193 (0, 0)) ∧ Below w.heap.size w w' := Any.strconv_ParseInt_10_at64_range_var Tryz.laysC174 s hlim h tp p w hvar
def Tryz.lays219_ren : Go.Shelf.Ren := ⟨fun | 219 => 117 | 217 => 81 | 225 => 123 | 224 => 124 | 267 => 125 | 266 => 106 | 314 => 130 | n => n, fun | 9 => 9 | 3 => 3 | 4 => 4 | 5 => 5 | 46 => 85 | 146 => 195 | 51 => 168 | n => n, fun | 1 => 3 | n => n⟩
theorem Tryz.lays219 : Go.Proofs.Lays.n219 Tryz.prog Tryz.lays219_ren := {
  mixed := by kernel_rfl
  f217 := Tryz.func81.trans (congrArg some (by kernel_rfl))
  f219 := Tryz.func117.trans (congrArg some (by kernel_rfl))
  f224 := Tryz.func124.trans (congrArg some (by kernel_rfl))
  f225 := Tryz.func123.trans (congrArg some (by kernel_rfl))
  f266 := Tryz.func106.trans (congrArg some (by kernel_rfl))
  f267 := Tryz.func125.trans (congrArg some (by kernel_rfl))
  f314 := Tryz.func130.trans (congrArg some (by kernel_rfl))
  t3 := Tryz.underlying3
  a3 := Tryz.isAgg3
  z3 := Tryz.sizeOf3
  v3 := Tryz.zeroValue3
  t4 := Tryz.underlying4
  a4 := Tryz.isAgg4
  z4 := Tryz.sizeOf4
  v4 := Tryz.zeroValue4
  t5 := Tryz.underlying5
  a5 := Tryz.isAgg5
  z5 := Tryz.sizeOf5
  v5 := Tryz.zeroValue5
  t9 := Tryz.underlying9
  a9 := Tryz.isAgg9
  z9 := Tryz.sizeOf9
  v9 := Tryz.zeroValue9
  t46 := Tryz.underlying85
  a46 := Tryz.isAgg85
  z46 := Tryz.sizeOf85
  v46 := Tryz.zeroValue85
  t51 := Tryz.underlying168
  a51 := Tryz.isAgg168
  z51 := Tryz.sizeOf168
  v51 := Tryz.zeroValue168
  t146 := Tryz.underlying195
  a146 := Tryz.isAgg195
  z146 := Tryz.sizeOf195
  v146 := Tryz.zeroValue195
  g1 := by kernel_rfl }
open Go.RowKit Go.Lib in
theorem Tryz.stringslite_Index_one (s : ByteArray) (c : UInt8) (w : World) :
    Calls Tryz.prog 117 #[.string s, .string ⟨#[c]⟩] w fun e w' => e = .returned (.int .i64 (Lib.indexByte s.data.toList c)) ∧ w' = w := Any.stringslite_Index_one Tryz.lays219 s c w
def Tryz.lays99_ren : Go.Shelf.Ren := ⟨fun | 99 => 43 | 206 => 66 | n => n, fun | 9 => 9 | 4 => 4 | 3 => 3 | n => n, fun | n => n⟩
theorem Tryz.lays99 : Go.Proofs.Lays.n99 Tryz.prog Tryz.lays99_ren := {
  mixed := by kernel_rfl
  f99 := Tryz.func43.trans (congrArg some (by kernel_rfl))
  f206 := Tryz.func66.trans (congrArg some (by kernel_rfl))
  t3 := Tryz.underlying3
  a3 := Tryz.isAgg3
  z3 := Tryz.sizeOf3
  v3 := Tryz.zeroValue3
  t4 := Tryz.underlying4
  a4 := Tryz.isAgg4
  z4 := Tryz.sizeOf4
  v4 := Tryz.zeroValue4
  t9 := Tryz.underlying9
  a9 := Tryz.isAgg9
  z9 := Tryz.sizeOf9
  v9 := Tryz.zeroValue9 }
open Go.RowKit Go.Lib in
theorem Tryz.strings_HasPrefix (s p : ByteArray) (w : World) :
    Calls Tryz.prog 43 #[.string s, .string p] w fun e w' => e = .returned (.bool (Lib.hasPrefix s.data.toList p.data.toList)) ∧ w' = w := Any.strings_HasPrefix Tryz.lays99 s p w
def Tryz.lays102_ren : Go.Shelf.Ren := ⟨fun | 102 => 41 | 209 => 57 | 207 => 82 | n => n, fun | 9 => 9 | 4 => 4 | 3 => 3 | n => n, fun | n => n⟩
theorem Tryz.lays102 : Go.Proofs.Lays.n102 Tryz.prog Tryz.lays102_ren := {
  mixed := by kernel_rfl
  f102 := Tryz.func41.trans (congrArg some (by kernel_rfl))
  f207 := Tryz.func82.trans (congrArg some (by kernel_rfl))
  f209 := Tryz.func57.trans (congrArg some (by kernel_rfl))
  t3 := Tryz.underlying3
  a3 := Tryz.isAgg3
  z3 := Tryz.sizeOf3
  v3 := Tryz.zeroValue3
  t4 := Tryz.underlying4
  a4 := Tryz.isAgg4
  z4 := Tryz.sizeOf4
  v4 := Tryz.zeroValue4
  t9 := Tryz.underlying9
  a9 := Tryz.isAgg9
  z9 := Tryz.sizeOf9
  v9 := Tryz.zeroValue9 }
open Go.RowKit Go.Lib in
theorem Tryz.strings_TrimSuffix (s p : ByteArray) (w : World) (hs : s.size ≤ 9223372036854775807) :
    Calls Tryz.prog 41 #[.string s, .string p] w fun e w' => e = .returned (.string ⟨(Lib.trimSuffix s.data.toList p.data.toList).toArray⟩) ∧ w' = w := Any.strings_TrimSuffix Tryz.lays102 s p w hs
def Tryz.lays166_ren : Go.Shelf.Ren := ⟨fun | 166 => 22 | 240 => 39 | 276 => 54 | n => n, fun | 70 => 76 | 72 => 78 | 37 => 24 | 75 => 80 | 127 => 104 | 164 => 127 | 80 => 86 | n => n, fun | n => n⟩
theorem Tryz.lays166 : Go.Proofs.Lays.n166 Tryz.prog Tryz.lays166_ren := {
  mixed := by kernel_rfl
  f166 := Tryz.func22.trans (congrArg some (by kernel_rfl))
  f240 := Tryz.func39.trans (congrArg some (by kernel_rfl))
  f276 := Tryz.func54.trans (congrArg some (by kernel_rfl))
  t0 := Tryz.underlying0
  a0 := Tryz.isAgg0
  z0 := Tryz.sizeOf0
  v0 := Tryz.zeroValue0
  t3 := Tryz.underlying3
  a3 := Tryz.isAgg3
  z3 := Tryz.sizeOf3
  v3 := Tryz.zeroValue3
  t4 := Tryz.underlying4
  a4 := Tryz.isAgg4
  z4 := Tryz.sizeOf4
  v4 := Tryz.zeroValue4
  t9 := Tryz.underlying9
  a9 := Tryz.isAgg9
  z9 := Tryz.sizeOf9
  v9 := Tryz.zeroValue9
  t20 := Tryz.underlying20
  a20 := Tryz.isAgg20
  z20 := Tryz.sizeOf20
  v20 := Tryz.zeroValue20
  t37 := Tryz.underlying24
  a37 := Tryz.isAgg24
  z37 := Tryz.sizeOf24
  v37 := Tryz.zeroValue24
  t70 := Tryz.underlying76
  a70 := Tryz.isAgg76
  z70 := Tryz.sizeOf76
  v70 := Tryz.zeroValue76
  t72 := Tryz.underlying78
  a72 := Tryz.isAgg78
  z72 := Tryz.sizeOf78
  v72 := Tryz.zeroValue78
  t75 := Tryz.underlying80
  a75 := Tryz.isAgg80
  z75 := Tryz.sizeOf80
  v75 := Tryz.zeroValue80
  t164 := Tryz.underlying127
  a164 := Tryz.isAgg127
  z164 := Tryz.sizeOf127
  v164 := Tryz.zeroValue127 }
theorem Tryz.Builder_Extra_166 : Builder.Extra Tryz.prog Tryz.lays166_ren := {
  sizeBuilder := by kernel_rfl
  liesBuilder := by kernel_rfl
  t5 := Tryz.underlying5
  a5 := Tryz.isAgg5
  z5 := Tryz.sizeOf5
  v5 := Tryz.zeroValue5
  infoByte := by kernel_rfl
  cellsByte := by kernel_rfl
  sizeByte := by kernel_rfl
  neB5 := by decide }
def Tryz.lays167_ren : Go.Shelf.Ren := ⟨fun | 167 => 20 | 240 => 39 | 276 => 54 | n => n, fun | 70 => 76 | 72 => 78 | 37 => 24 | 75 => 80 | 127 => 104 | 164 => 127 | 80 => 86 | n => n, fun | n => n⟩
theorem Tryz.lays167 : Go.Proofs.Lays.n167 Tryz.prog Tryz.lays167_ren := {
  mixed := by kernel_rfl
  f167 := Tryz.func20.trans (congrArg some (by kernel_rfl))
  f240 := Tryz.func39.trans (congrArg some (by kernel_rfl))
  f276 := Tryz.func54.trans (congrArg some (by kernel_rfl))
  t0 := Tryz.underlying0
  a0 := Tryz.isAgg0
  z0 := Tryz.sizeOf0
  v0 := Tryz.zeroValue0
  t4 := Tryz.underlying4
  a4 := Tryz.isAgg4
  z4 := Tryz.sizeOf4
  v4 := Tryz.zeroValue4
  t5 := Tryz.underlying5
  a5 := Tryz.isAgg5
  z5 := Tryz.sizeOf5
  v5 := Tryz.zeroValue5
  t9 := Tryz.underlying9
  a9 := Tryz.isAgg9
  z9 := Tryz.sizeOf9
  v9 := Tryz.zeroValue9
  t20 := Tryz.underlying20
  a20 := Tryz.isAgg20
  z20 := Tryz.sizeOf20
  v20 := Tryz.zeroValue20
  t37 := Tryz.underlying24
  a37 := Tryz.isAgg24
  z37 := Tryz.sizeOf24
  v37 := Tryz.zeroValue24
  t70 := Tryz.underlying76
  a70 := Tryz.isAgg76
  z70 := Tryz.sizeOf76
  v70 := Tryz.zeroValue76
  t72 := Tryz.underlying78
  a72 := Tryz.isAgg78
  z72 := Tryz.sizeOf78
  v72 := Tryz.zeroValue78
  t75 := Tryz.underlying80
  a75 := Tryz.isAgg80
  z75 := Tryz.sizeOf80
  v75 := Tryz.zeroValue80
  t164 := Tryz.underlying127
  a164 := Tryz.isAgg127
  z164 := Tryz.sizeOf127
  v164 := Tryz.zeroValue127 }
theorem Tryz.Builder_Extra_167 : Builder.Extra Tryz.prog Tryz.lays167_ren := {
  sizeBuilder := by kernel_rfl
  liesBuilder := by kernel_rfl
  t5 := Tryz.underlying5
  a5 := Tryz.isAgg5
  z5 := Tryz.sizeOf5
  v5 := Tryz.zeroValue5
  infoByte := by kernel_rfl
  cellsByte := by kernel_rfl
  sizeByte := by kernel_rfl
  neB5 := by decide }
open Go.RowKit in
theorem Tryz.Builder_WriteByte_k (B b : Nat) (bs : List Value) (c : Int) (w : World) (h : Lib.IsBuilderF 78 5 B b bs w) (hlen : bs.length + 1 ≤ 140737488355328) (hBw : B ≤ w.heap.size) :
    Calls Tryz.prog 20 #[.pointer (some ⟨b, 0, none⟩), .int .u8 c] w fun e w' => e = .returned .nilIface ∧ (Lib.BuilderAtF 78 5 B b (.pointer (some ⟨b, 0, none⟩)) (bs ++ [.int .u8 c]) w' ∧ Below B w w' ∧ Lib.OthersKept 5 (some b) w w') := Any.Builder_WriteByte_k Tryz.lays167 Tryz.Builder_Extra_167 B b bs c w h hlen hBw
open Go.RowKit in
theorem Tryz.Builder_WriteString_k (B b : Nat) (bs : List Value) (s : ByteArray) (w : World) (h : Lib.IsBuilderF 78 5 B b bs w) (hlen : bs.length + s.size ≤ 140737488355328) (hBw : B ≤ w.heap.size) :
    Calls Tryz.prog 22 #[.pointer (some ⟨b, 0, none⟩), .string s] w fun e w' => e = .returned (.tuple #[.int .i64 s.size, .nilIface]) ∧ (Lib.BuilderAtF 78 5 B b (.pointer (some ⟨b, 0, none⟩)) (bs ++ Lib.strCells s) w' ∧ Below B w w' ∧ Lib.OthersKept 5 (some b) w w') := Any.Builder_WriteString_k Tryz.lays166 Tryz.Builder_Extra_166 B b bs s w h hlen hBw
end Go.Proofs.YtghppkfopglgaaaGreatDoor
