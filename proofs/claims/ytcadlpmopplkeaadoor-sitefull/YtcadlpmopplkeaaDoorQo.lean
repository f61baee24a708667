/- SiteFull from region 19 on. -/
import Derived.Test.YtcadlpmopplkeaaDoorQn
import Derived.BigQuiet
import Derived.Deep.QuietTactic
import Derived.Deep.CutRange
namespace Go.Proofs.YtcadlpmopplkeaaDoor
open Go.RowKit Go.Maps
open Go.Shelf
set_option linter.unusedVariables false
set_option linter.unusedSimpArgs false
set_option maxHeartbeats 40000000 in
set_option maxRecDepth 100000 in
theorem full_t19 (A : Int) (bd : ByteArray) (w Wz : World) (lo g : Nat) (b : Option Addr) (c : Nat) (l : List PC) (K : Nat) (I : ByteArray) (qx qy qz : Nat) (xb : Option Addr) (xc : Nat) (yb : Option Addr) (yc : Nat) (zb : Option Addr) (zl zc : Nat) (Lz : List Fd) (HT : Hid (Tab w)) (HI : Hid (itoaS (K : Int) = I)) (HBd : Hid (bd.size ≤ 60000)) (HL : Hid (l.length = 64)) (HF : Hid (Fl bd l)) (hK64 : K < 64) (HF18d : Hid (Fs w Wz lo g (b, 64, c) l K)) (HX18dx : Hid (Rb w Wz qx ⟨#[111, 116, 104, 101, 114]⟩ (xb, 1, xc) [szF 5])) (HX18dy : Hid (Rb w Wz qy ⟨#[111, 116, 104, 101, 114]⟩ (yb, 1, yc) [szF 5])) (HXz : Hid (Rb w Wz qz (bd ++ I) (zb, zl, zc) Lz)) (HAp : Hid (∀ k, (sv (xb, 1, xc)).ownBlock = some k → (sv (yb, 1, yc)).ownBlock ≠ some k)) (u22 u23 u24 u25 u26 u27 u28 u29 u30 u31 u32 u33 u34 u35 u36 u37 u38 u39 u40 u41 u42 u43 u44 u45 u46 u47 u48 u49 u50 u51 u52 u53 u54 u55 u56 u57 u58 u59 u60 u61 u62 u63 u64 u65 u66 u67 u68 u69 u70 u71 u72 u73 u74 u75 u76 u77 u78 u79 u80 u81 u82 u83 u84 u85 u86 u87 u88 u89 u90 u91 u92 u93 u94 u95 u96 u97 u98 u99 u100 u101 u102 u103 u104 u105 u106 u107 u108 u109 u110 u111 u112 u113 u114 u115 u116 u117 u118 u119 u120 u121 u122 u123 u124 u125 u126 u127 u128 u129 u130 u131 u132 u133 u134 u135 u136 u137 u138 u139 u140 u141 u142 u143 u144 u145 u146 u147 u148 u149 u150 u151 u152 u153 u154 u155 u156 u157 u158 u159 u160 u161 u162 u163 u164 u165 u166 u167 u168 u169 u170 u171 u172 u173 u174 u175 u176 u177 u178 u179 u180 u181 u182 u183 u184 u185 u186 u187 u188 u189 u190 u191 u192 u193 u194 u195 u196 u197 u198 u199 u200 u201 u202 u203 u204 u205 u206 u207 u208 u209 u210 u211 u212 u213 u214 u215 u216 u217 u218 u219 u220 u221 u222 u223 u224 u225 u226 u227 u228 u229 u230 u231 u232 u233 u234 u235 u236 u237 u238 u239 u240 u241 u242 u243 u244 u245 u246 u247 u248 u249 u250 u251 u252 u253 u254 u255 u256 u257 u258 u259 u260 u261 u262 u263 u264 u265 u266 u267 u268 u269 u270 u271 u272 u273 u274 u275 u276 u277 u278 u279 u280 u281 u282 u283 u284 u285 u286 u287 u288 u289 u290 u291 u292 u293 u294 u295 u296 u297 u298 u299 u300 u301 u302 u303 u304 u305 u306 u307 u308 u309 u310 u311 u312 u313 u314 u315 u316 u317 u318 u319 : Value) : Code.wp Tryd.prog (dropS 12 (bodyOf Tryd.f4)) (bodyPost Tryd.prog Tryd.f4 (fun e w' => e = .returned (.bool true) ∧ Below w.heap.size w w')) { tmps := #[.int .i64 A, .string bd, undef, undef, .bool false, .slice b 64 c, .int .i64 64, .pointer (some ⟨g, 0, none⟩), .int .i64 0, .int .i64 (K : Int), .pointer (some ⟨qx, 0, none⟩), .pointer (some ⟨qy, 0, none⟩), .int .i64 0, .pointer (some ⟨qz, 0, none⟩), .int .i64 0, undef, undef, undef, undef, undef, undef, undef, u22, u23, u24, u25, u26, u27, u28, u29, u30, u31, u32, u33, u34, u35, u36, u37, u38, u39, u40, u41, u42, u43, u44, u45, u46, u47, u48, u49, u50, u51, u52, u53, u54, u55, u56, u57, u58, u59, u60, u61, u62, u63, u64, u65, u66, u67, u68, u69, u70, u71, u72, u73, u74, u75, u76, u77, u78, u79, u80, u81, u82, u83, u84, u85, u86, u87, u88, u89, u90, u91, u92, u93, u94, u95, u96, u97, u98, u99, u100, u101, u102, u103, u104, u105, u106, u107, u108, u109, u110, u111, u112, u113, u114, u115, u116, u117, u118, u119, u120, u121, u122, u123, u124, u125, u126, u127, u128, u129, u130, u131, u132, u133, u134, u135, u136, u137, u138, u139, u140, u141, u142, u143, u144, u145, u146, u147, u148, u149, u150, u151, u152, u153, u154, u155, u156, u157, u158, u159, u160, u161, u162, u163, u164, u165, u166, u167, u168, u169, u170, u171, u172, u173, u174, u175, u176, u177, u178, u179, u180, u181, u182, u183, u184, u185, u186, u187, u188, u189, u190, u191, u192, u193, u194, u195, u196, u197, u198, u199, u200, u201, u202, u203, u204, u205, u206, u207, u208, u209, u210, u211, u212, u213, u214, u215, u216, u217, u218, u219, u220, u221, u222, u223, u224, u225, u226, u227, u228, u229, u230, u231, u232, u233, u234, u235, u236, u237, u238, u239, u240, u241, u242, u243, u244, u245, u246, u247, u248, u249, u250, u251, u252, u253, u254, u255, u256, u257, u258, u259, u260, u261, u262, u263, u264, u265, u266, u267, u268, u269, u270, u271, u272, u273, u274, u275, u276, u277, u278, u279, u280, u281, u282, u283, u284, u285, u286, u287, u288, u289, u290, u291, u292, u293, u294, u295, u296, u297, u298, u299, u300, u301, u302, u303, u304, u305, u306, u307, u308, u309, u310, u311, u312, u313, u314, u315, u316, u317, u318, u319], defers := [] } Wz := by
  conv in (dropS 12 (bodyOf Tryd.f4)) => whnf
  dsimp (config := { failIfUnchanged := false }) only
  have hI := HI.out
  have HIT : Hid (∀ V, Below w.heap.size w V → Calls Tryd.prog 9 #[.int .i64 (K : Int)] V fun e w' => e = .returned (.string I) ∧ Below V.heap.size V w') := fun V hV => by rw [← hI]; exact itoa_any (K : Int) (by omega) (by omega) V (HT.out.below hV)
  have hI2 : I.size ≤ 2 := by rw [← hI]; exact (flP_one (by omega)).2.2.1
  obtain ⟨P, hP⟩ : ∃ P, (⟨#[47]⟩ : ByteArray) ++ I = P := ⟨_, rfl⟩
  have HP : Hid (flP K = P) := by rw [← hP, ← hI]; rfl
  have HPe : Hid ((⟨#[47]⟩ : ByteArray) ++ I = P) := hP
  have hs1 : ¬ (9223372036854775807 < 1 + I.size) := by omega
  have hs2 : ¬ (9223372036854775807 < bd.size + I.size) := by have := HBd.out; omega
  have H64 : Hid ((⟨#[47, 54, 52]⟩ : ByteArray) = flP 64) := by show _ = _; kernel_rfl
  have HPg : Hid (∀ V, Calls Tryd.prog 13 #[.string ⟨#[47, 54, 52]⟩, .string ⟨#[120]⟩] V fun e w' => ∃ y : SV, e = .returned (.agg (pgv ⟨aTest, flP 64, 200, e0S, y⟩)) ∧ Below V.heap.size V w' ∧ R ECh w' (sv y) [⟨e0S, ⟨#[120]⟩⟩] ∧ ∀ k, (sv y).ownBlock = some k → V.heap.size ≤ k) := fun V => by rw [H64.out]; exact page_any _ _ V
  have HPk : Hid (∀ V, Calls Tryd.prog 13 #[.string P, .string ⟨#[111, 116, 104, 101, 114]⟩] V fun e w' => ∃ y : SV, e = .returned (.agg (pgv ⟨aTest, P, 200, e0S, y⟩)) ∧ Below V.heap.size V w' ∧ R ECh w' (sv y) [⟨e0S, ⟨#[111, 116, 104, 101, 114]⟩⟩] ∧ ∀ k, (sv y).ownBlock = some k → V.heap.size ≤ k) := fun V => page_any _ _ V
  clear hI hI2
  obtain ⟨P64, hP64⟩ : ∃ P, flP 64 = P := ⟨_, rfl⟩
  have HP64 : Hid (flP 64 = P64) := hP64
  rw [hP64] at HPg
  clear hP64
  go_upto_region 19 with fail
  have hS19 : Hid (∀ V, Below Wz.heap.size Wz V → V.cell? ⟨qx, 1, none⟩ = some (.slice xb 1 xc) ∧ V.cell? ⟨qx, 2, none⟩ = some (.string ⟨#[111, 116, 104, 101, 114]⟩) ∧ V.cell? ⟨qy, 1, none⟩ = some (.slice yb 1 yc) ∧ V.cell? ⟨qy, 2, none⟩ = some (.string ⟨#[111, 116, 104, 101, 114]⟩) ∧ V.cell? ⟨qz, 2, none⟩ = some (.string (bd ++ I))) := fun V hV => ⟨(HX18dx.out.below hV).cells.1, (HX18dx.out.below hV).cells.2, (HX18dy.out.below hV).cells.1, (HX18dy.out.below hV).cells.2, (HXz.out.below hV).cells.2⟩
  have hIW : Below Wz.heap.size Wz Wz.drew := (Below.refl _ _).drew
  refine wp_region_held_drew (S := fun V => V.cell? ⟨qx, 1, none⟩ = some (.slice xb 1 xc) ∧ V.cell? ⟨qx, 2, none⟩ = some (.string ⟨#[111, 116, 104, 101, 114]⟩) ∧ V.cell? ⟨qy, 1, none⟩ = some (.slice yb 1 yc) ∧ V.cell? ⟨qy, 2, none⟩ = some (.string ⟨#[111, 116, 104, 101, 114]⟩) ∧ V.cell? ⟨qz, 2, none⟩ = some (.string (bd ++ I))) (by kernel_rfl) (hS19.out _ hIW) (fun hHeld => ?_)
  generalize hWg : World.drew _ = W at hIW hHeld ⊢
  clear hWg
  refine wpAnyH_take (i := 0) (oi := { dst := some 111, op := Op.move (Operand.tmp 8), type := 31, pos := "outright.go:257", after := #[], guard := none }) (v := ?vv1) rfl (by kernel_rfl) (by kernel_rfl) (by kernel_rfl) (fun _ _ _ h => h) (Or.inl ⟨by rfl, ?hy1⟩) (by assumption) ?_
  case hy1 => (intro w hSw; (try dsimp only at hSw); go_simp; all_goals with_reducible rfl)
  try simp only [Act.put, List.setIfInBounds_toArray, List.set_cons_zero, List.set_cons_succ]
  refine wpAnyH_take (i := 1) (oi := { dst := some 112, op := Op.binOp BinOp.neq 31 (Operand.tmp 111) (Operand.const (Value.int IntKind.i64 0)) 31, type := 4, pos := "outright.go:257", after := #[{ on := 0, ground := Ground.data }], guard := none }) (v := ?vv2) rfl (by kernel_rfl) (by kernel_rfl) (by kernel_rfl) (fun _ _ _ h => h) (Or.inl ⟨by rfl, ?hy2⟩) (by assumption) ?_
  case hy2 => (intro w hSw; (try dsimp only at hSw); go_simp; all_goals with_reducible rfl)
  try simp only [Act.put, List.setIfInBounds_toArray, List.set_cons_zero, List.set_cons_succ]
  refine wpAnyH_take (i := 2) (oi := { dst := some 113, op := Op.move (Operand.tmp 112), type := 4, pos := "outright.go:257", after := #[{ on := 1, ground := Ground.data }], guard := none }) (v := ?vv3) rfl (by kernel_rfl) (by kernel_rfl) (by kernel_rfl) (fun _ _ _ h => h) (Or.inl ⟨by rfl, ?hy3⟩) (by assumption) ?_
  case hy3 => (intro w hSw; (try dsimp only at hSw); go_simp; all_goals with_reducible rfl)
  try simp only [Act.put, List.setIfInBounds_toArray, List.set_cons_zero, List.set_cons_succ]
  refine wpAnyH_take (i := 3) (oi := { dst := some 114, op := Op.move (Operand.tmp 12), type := 31, pos := "outright.go:257", after := #[{ on := 2, ground := Ground.guard }], guard := some (2, false) }) (v := ?vv4) rfl (by kernel_rfl) (by kernel_rfl) (by kernel_rfl) (fun _ _ _ h => h) (Or.inl ⟨by rfl, ?hy4⟩) (by assumption) ?_
  case hy4 => (intro w hSw; (try dsimp only at hSw); go_simp; all_goals with_reducible rfl)
  try simp only [Act.put, List.setIfInBounds_toArray, List.set_cons_zero, List.set_cons_succ]
  refine wpAnyH_take (i := 4) (oi := { dst := some 115, op := Op.binOp BinOp.neq 31 (Operand.tmp 114) (Operand.const (Value.int IntKind.i64 0)) 31, type := 4, pos := "outright.go:257", after := #[{ on := 3, ground := Ground.data }, { on := 2, ground := Ground.guard }], guard := some (2, false) }) (v := ?vv5) rfl (by kernel_rfl) (by kernel_rfl) (by kernel_rfl) (fun _ _ _ h => h) (Or.inl ⟨by rfl, ?hy5⟩) (by assumption) ?_
  case hy5 => (intro w hSw; (try dsimp only at hSw); go_simp; all_goals with_reducible rfl)
  try simp only [Act.put, List.setIfInBounds_toArray, List.set_cons_zero, List.set_cons_succ]
  refine wpAnyH_take (i := 5) (oi := { dst := some 116, op := Op.pick (Operand.tmp 113) (Operand.const (Value.bool true)) (Operand.tmp 115), type := 4, pos := "outright.go:257", after := #[{ on := 2, ground := Ground.data }, { on := 4, ground := Ground.data }], guard := none }) (v := ?vv6) rfl (by kernel_rfl) (by kernel_rfl) (by kernel_rfl) (fun _ _ _ h => h) (Or.inl ⟨by rfl, ?hy6⟩) (by assumption) ?_
  case hy6 => (intro w hSw; (try dsimp only at hSw); go_simp; all_goals with_reducible rfl)
  try simp only [Act.put, List.setIfInBounds_toArray, List.set_cons_zero, List.set_cons_succ]
  refine wpAnyH_take (i := 6) (oi := { dst := some 117, op := Op.move (Operand.tmp 116), type := 4, pos := "outright.go:257", after := #[{ on := 5, ground := Ground.data }, { on := 2, ground := Ground.chain }], guard := none }) (v := ?vv7) rfl (by kernel_rfl) (by kernel_rfl) (by kernel_rfl) (fun _ _ _ h => h) (Or.inl ⟨by rfl, ?hy7⟩) (by assumption) ?_
  case hy7 => (intro w hSw; (try dsimp only at hSw); go_simp; all_goals with_reducible rfl)
  try simp only [Act.put, List.setIfInBounds_toArray, List.set_cons_zero, List.set_cons_succ]
  refine wpAnyH_take (i := 7) (oi := { dst := some 118, op := Op.move (Operand.tmp 14), type := 31, pos := "outright.go:257", after := #[{ on := 6, ground := Ground.guard }], guard := some (6, false) }) (v := ?vv8) rfl (by kernel_rfl) (by kernel_rfl) (by kernel_rfl) (fun _ _ _ h => h) (Or.inl ⟨by rfl, ?hy8⟩) (by assumption) ?_
  case hy8 => (intro w hSw; (try dsimp only at hSw); go_simp; all_goals with_reducible rfl)
  try simp only [Act.put, List.setIfInBounds_toArray, List.set_cons_zero, List.set_cons_succ]
  refine wpAnyH_take (i := 8) (oi := { dst := some 119, op := Op.binOp BinOp.neq 31 (Operand.tmp 118) (Operand.const (Value.int IntKind.i64 0)) 31, type := 4, pos := "outright.go:257", after := #[{ on := 7, ground := Ground.data }, { on := 6, ground := Ground.guard }], guard := some (6, false) }) (v := ?vv9) rfl (by kernel_rfl) (by kernel_rfl) (by kernel_rfl) (fun _ _ _ h => h) (Or.inl ⟨by rfl, ?hy9⟩) (by assumption) ?_
  case hy9 => (intro w hSw; (try dsimp only at hSw); go_simp; all_goals with_reducible rfl)
  try simp only [Act.put, List.setIfInBounds_toArray, List.set_cons_zero, List.set_cons_succ]
  refine wpAnyH_take (i := 9) (oi := { dst := some 120, op := Op.pick (Operand.tmp 117) (Operand.const (Value.bool true)) (Operand.tmp 119), type := 4, pos := "outright.go:257", after := #[{ on := 6, ground := Ground.data }, { on := 8, ground := Ground.data }], guard := none }) (v := ?vv10) rfl (by kernel_rfl) (by kernel_rfl) (by kernel_rfl) (fun _ _ _ h => h) (Or.inl ⟨by rfl, ?hy10⟩) (by assumption) ?_
  case hy10 => (intro w hSw; (try dsimp only at hSw); go_simp; all_goals with_reducible rfl)
  try simp only [Act.put, List.setIfInBounds_toArray, List.set_cons_zero, List.set_cons_succ]
  refine wpAnyH_take (i := 10) (oi := { dst := some 121, op := Op.move (Operand.tmp 120), type := 4, pos := "outright.go:257", after := #[{ on := 9, ground := Ground.data }, { on := 6, ground := Ground.chain }], guard := none }) (v := ?vv11) rfl (by kernel_rfl) (by kernel_rfl) (by kernel_rfl) (fun _ _ _ h => h) (Or.inl ⟨by rfl, ?hy11⟩) (by assumption) ?_
  case hy11 => (intro w hSw; (try dsimp only at hSw); go_simp; all_goals with_reducible rfl)
  try simp only [Act.put, List.setIfInBounds_toArray, List.set_cons_zero, List.set_cons_succ]
  refine wpAnyH_take (i := 11) (oi := { dst := some 122, op := Op.fieldAddr 37 (Operand.tmp 10) 2, type := 0, pos := "outright.go:257", after := #[{ on := 10, ground := Ground.guard }], guard := some (10, false) }) (v := ?vv12) rfl (by kernel_rfl) (by kernel_rfl) (by kernel_rfl) (fun _ _ _ h => h) (Or.inl ⟨by rfl, ?hy12⟩) (by assumption) ?_
  case hy12 => (intro w hSw; (try dsimp only at hSw); go_simp; all_goals with_reducible rfl)
  try simp only [Act.put, List.setIfInBounds_toArray, List.set_cons_zero, List.set_cons_succ]
  refine wpAnyH_take (i := 12) (oi := { dst := some 123, op := Op.load 9 (Operand.tmp 122), type := 9, pos := "outright.go:257", after := #[{ on := 11, ground := Ground.data }, { on := 10, ground := Ground.guard }], guard := some (10, false) }) (v := ?vv13) rfl (by kernel_rfl) (by kernel_rfl) (by kernel_rfl) (fun _ _ _ h => h) (Or.inl ⟨by rfl, ?hy13⟩) (by assumption) ?_
  case hy13 => (intro w hSw; (try dsimp only at hSw); go_simp; all_goals with_reducible rfl)
  try simp only [Act.put, List.setIfInBounds_toArray, List.set_cons_zero, List.set_cons_succ]
  refine wpAnyH_take (i := 13) (oi := { dst := some 124, op := Op.binOp BinOp.neq 9 (Operand.tmp 123) (Operand.const (Value.string { data := #[111, 116, 104, 101, 114] })) 9, type := 4, pos := "outright.go:257", after := #[{ on := 12, ground := Ground.data }, { on := 10, ground := Ground.guard }], guard := some (10, false) }) (v := ?vv14) rfl (by kernel_rfl) (by kernel_rfl) (by kernel_rfl) (fun _ _ _ h => h) (Or.inl ⟨by rfl, ?hy14⟩) (by assumption) ?_
  case hy14 => (intro w hSw; (try dsimp only at hSw); go_simp; all_goals with_reducible rfl)
  try simp only [Act.put, List.setIfInBounds_toArray, List.set_cons_zero, List.set_cons_succ]
  refine wpAnyH_take (i := 14) (oi := { dst := some 125, op := Op.pick (Operand.tmp 121) (Operand.const (Value.bool true)) (Operand.tmp 124), type := 4, pos := "outright.go:257", after := #[{ on := 10, ground := Ground.data }, { on := 13, ground := Ground.data }], guard := none }) (v := ?vv15) rfl (by kernel_rfl) (by kernel_rfl) (by kernel_rfl) (fun _ _ _ h => h) (Or.inl ⟨by rfl, ?hy15⟩) (by assumption) ?_
  case hy15 => (intro w hSw; (try dsimp only at hSw); go_simp; all_goals with_reducible rfl)
  try simp only [Act.put, List.setIfInBounds_toArray, List.set_cons_zero, List.set_cons_succ]
  refine wpAnyH_take (i := 15) (oi := { dst := some 126, op := Op.move (Operand.tmp 125), type := 4, pos := "outright.go:257", after := #[{ on := 14, ground := Ground.data }, { on := 10, ground := Ground.chain }], guard := none }) (v := ?vv16) rfl (by kernel_rfl) (by kernel_rfl) (by kernel_rfl) (fun _ _ _ h => h) (Or.inl ⟨by rfl, ?hy16⟩) (by assumption) ?_
  case hy16 => (intro w hSw; (try dsimp only at hSw); go_simp; all_goals with_reducible rfl)
  try simp only [Act.put, List.setIfInBounds_toArray, List.set_cons_zero, List.set_cons_succ]
  refine wpAnyH_take (i := 16) (oi := { dst := some 127, op := Op.fieldAddr 37 (Operand.tmp 11) 2, type := 0, pos := "outright.go:257", after := #[{ on := 15, ground := Ground.guard }], guard := some (15, false) }) (v := ?vv17) rfl (by kernel_rfl) (by kernel_rfl) (by kernel_rfl) (fun _ _ _ h => h) (Or.inl ⟨by rfl, ?hy17⟩) (by assumption) ?_
  case hy17 => (intro w hSw; (try dsimp only at hSw); go_simp; all_goals with_reducible rfl)
  try simp only [Act.put, List.setIfInBounds_toArray, List.set_cons_zero, List.set_cons_succ]
  refine wpAnyH_take (i := 17) (oi := { dst := some 128, op := Op.load 9 (Operand.tmp 127), type := 9, pos := "outright.go:257", after := #[{ on := 16, ground := Ground.data }, { on := 15, ground := Ground.guard }], guard := some (15, false) }) (v := ?vv18) rfl (by kernel_rfl) (by kernel_rfl) (by kernel_rfl) (fun _ _ _ h => h) (Or.inl ⟨by rfl, ?hy18⟩) (by assumption) ?_
  case hy18 => (intro w hSw; (try dsimp only at hSw); go_simp; all_goals with_reducible rfl)
  try simp only [Act.put, List.setIfInBounds_toArray, List.set_cons_zero, List.set_cons_succ]
  refine wpAnyH_take (i := 18) (oi := { dst := some 129, op := Op.binOp BinOp.neq 9 (Operand.tmp 128) (Operand.const (Value.string { data := #[111, 116, 104, 101, 114] })) 9, type := 4, pos := "outright.go:257", after := #[{ on := 17, ground := Ground.data }, { on := 15, ground := Ground.guard }], guard := some (15, false) }) (v := ?vv19) rfl (by kernel_rfl) (by kernel_rfl) (by kernel_rfl) (fun _ _ _ h => h) (Or.inl ⟨by rfl, ?hy19⟩) (by assumption) ?_
  case hy19 => (intro w hSw; (try dsimp only at hSw); go_simp; all_goals with_reducible rfl)
  try simp only [Act.put, List.setIfInBounds_toArray, List.set_cons_zero, List.set_cons_succ]
  refine wpAnyH_take (i := 19) (oi := { dst := some 130, op := Op.pick (Operand.tmp 126) (Operand.const (Value.bool true)) (Operand.tmp 129), type := 4, pos := "outright.go:257", after := #[{ on := 15, ground := Ground.data }, { on := 18, ground := Ground.data }], guard := none }) (v := ?vv20) rfl (by kernel_rfl) (by kernel_rfl) (by kernel_rfl) (fun _ _ _ h => h) (Or.inl ⟨by rfl, ?hy20⟩) (by assumption) ?_
  case hy20 => (intro w hSw; (try dsimp only at hSw); go_simp; all_goals with_reducible rfl)
  try simp only [Act.put, List.setIfInBounds_toArray, List.set_cons_zero, List.set_cons_succ]
  refine wpAnyH_take (i := 20) (oi := { dst := some 131, op := Op.move (Operand.tmp 130), type := 4, pos := "outright.go:257", after := #[{ on := 19, ground := Ground.data }, { on := 15, ground := Ground.chain }], guard := none }) (v := ?vv21) rfl (by kernel_rfl) (by kernel_rfl) (by kernel_rfl) (fun _ _ _ h => h) (Or.inl ⟨by rfl, ?hy21⟩) (by assumption) ?_
  case hy21 => (intro w hSw; (try dsimp only at hSw); go_simp; all_goals with_reducible rfl)
  try simp only [Act.put, List.setIfInBounds_toArray, List.set_cons_zero, List.set_cons_succ]
  refine wpAnyH_take (i := 21) (oi := { dst := some 132, op := Op.fieldAddr 37 (Operand.tmp 13) 2, type := 0, pos := "outright.go:257", after := #[{ on := 20, ground := Ground.guard }], guard := some (20, false) }) (v := ?vv22) rfl (by kernel_rfl) (by kernel_rfl) (by kernel_rfl) (fun _ _ _ h => h) (Or.inl ⟨by rfl, ?hy22⟩) (by assumption) ?_
  case hy22 => (intro w hSw; (try dsimp only at hSw); go_simp; all_goals with_reducible rfl)
  try simp only [Act.put, List.setIfInBounds_toArray, List.set_cons_zero, List.set_cons_succ]
  refine wpAnyH_take (i := 22) (oi := { dst := some 133, op := Op.load 9 (Operand.tmp 132), type := 9, pos := "outright.go:257", after := #[{ on := 21, ground := Ground.data }, { on := 20, ground := Ground.guard }], guard := some (20, false) }) (v := ?vv23) rfl (by kernel_rfl) (by kernel_rfl) (by kernel_rfl) (fun _ _ _ h => h) (Or.inl ⟨by rfl, ?hy23⟩) (by assumption) ?_
  case hy23 => (intro w hSw; (try dsimp only at hSw); go_simp; all_goals with_reducible rfl)
  try simp only [Act.put, List.setIfInBounds_toArray, List.set_cons_zero, List.set_cons_succ]
  refine wpAnyH_take (i := 23) (oi := { dst := some 134, op := Op.move (Operand.tmp 1), type := 9, pos := "outright.go:257", after := #[{ on := 20, ground := Ground.guard }], guard := some (20, false) }) (v := ?vv24) rfl (by kernel_rfl) (by kernel_rfl) (by kernel_rfl) (fun _ _ _ h => h) (Or.inl ⟨by rfl, ?hy24⟩) (by assumption) ?_
  case hy24 => (intro w hSw; (try dsimp only at hSw); go_simp; all_goals with_reducible rfl)
  try simp only [Act.put, List.setIfInBounds_toArray, List.set_cons_zero, List.set_cons_succ]
  refine wpAnyH_take (i := 24) (oi := { dst := some 135, op := Op.move (Operand.tmp 9), type := 3, pos := "outright.go:257", after := #[{ on := 20, ground := Ground.guard }], guard := some (20, false) }) (v := ?vv25) rfl (by kernel_rfl) (by kernel_rfl) (by kernel_rfl) (fun _ _ _ h => h) (Or.inl ⟨by rfl, ?hy25⟩) (by assumption) ?_
  case hy25 => (intro w hSw; (try dsimp only at hSw); go_simp; all_goals with_reducible rfl)
  try simp only [Act.put, List.setIfInBounds_toArray, List.set_cons_zero, List.set_cons_succ]
  refine wpAnyH_ready (rs := [25]) (by kernel_rfl) (by simp) ?_
  refine AllReadyH.cons (o := { dst := some 136, op := Op.call { callee := Callee.value (Operand.func 9), args := #[Operand.tmp 135], argTypes := #[3] }, type := 9, pos := "outright.go:257", after := #[{ on := 24, ground := Ground.data }, { on := 20, ground := Ground.chain }, { on := 20, ground := Ground.guard }], guard := some (20, false) }) rfl (fun K hK => ?_) AllReadyH.nil
  go_simp
  refine (HIT.out _ (HF18d.out.1.bel.trans (hIW.mono HF18d.out.1.bel.size))).mono ?_
  rintro e' Wx ⟨rfl, bX⟩
  have hWx : Below Wz.heap.size Wz Wx := hIW.trans (bX.mono hIW.size)
  clear bX
  go_wp2_with fail
  refine hK.out _ _ (hS19.out _ hWx) (fun hHeld => ?_)
  clear hK K
  try simp only [Act.put, List.setIfInBounds_toArray, List.set_cons_zero, List.set_cons_succ]
  refine wpAnyH_take (i := 26) (oi := { dst := some 137, op := Op.binOp BinOp.add 9 (Operand.tmp 134) (Operand.tmp 136) 9, type := 9, pos := "outright.go:257", after := #[{ on := 23, ground := Ground.data }, { on := 25, ground := Ground.data }, { on := 20, ground := Ground.guard }], guard := some (20, false) }) (v := ?vv26) rfl (by kernel_rfl) (by kernel_rfl) (by kernel_rfl) (fun _ _ _ h => h) (Or.inl ⟨by rfl, ?hy26⟩) (by assumption) ?_
  case hy26 => (intro w hSw; (try dsimp only at hSw); go_simp; all_goals with_reducible rfl)
  try simp only [Act.put, List.setIfInBounds_toArray, List.set_cons_zero, List.set_cons_succ]
  refine wpAnyH_take (i := 27) (oi := { dst := some 138, op := Op.binOp BinOp.neq 9 (Operand.tmp 133) (Operand.tmp 137) 9, type := 4, pos := "outright.go:257", after := #[{ on := 22, ground := Ground.data }, { on := 26, ground := Ground.data }, { on := 20, ground := Ground.guard }], guard := some (20, false) }) (v := ?vv27) rfl (by kernel_rfl) (by kernel_rfl) (by kernel_rfl) (fun _ _ _ h => h) (Or.inl ⟨by rfl, ?hy27⟩) (by assumption) ?_
  case hy27 => (intro w hSw; (try dsimp only at hSw); go_simp; all_goals with_reducible rfl)
  try simp only [Act.put, List.setIfInBounds_toArray, List.set_cons_zero, List.set_cons_succ]
  refine wpAnyH_take (i := 28) (oi := { dst := some 139, op := Op.pick (Operand.tmp 131) (Operand.const (Value.bool true)) (Operand.tmp 138), type := 4, pos := "outright.go:257", after := #[{ on := 20, ground := Ground.data }, { on := 27, ground := Ground.data }], guard := none }) (v := ?vv28) rfl (by kernel_rfl) (by kernel_rfl) (by kernel_rfl) (fun _ _ _ h => h) (Or.inl ⟨by rfl, ?hy28⟩) (by assumption) ?_
  case hy28 => (intro w hSw; (try dsimp only at hSw); go_simp; all_goals with_reducible rfl)
  try simp only [Act.put, List.setIfInBounds_toArray, List.set_cons_zero, List.set_cons_succ]
  refine wpAnyH_take (i := 29) (oi := { dst := some 140, op := Op.move (Operand.tmp 139), type := 4, pos := "outright.go:257", after := #[{ on := 28, ground := Ground.data }, { on := 25, ground := Ground.chain }], guard := none }) (v := ?vv29) rfl (by kernel_rfl) (by kernel_rfl) (by kernel_rfl) (fun _ _ _ h => h) (Or.inl ⟨by rfl, ?hy29⟩) (by assumption) ?_
  case hy29 => (intro w hSw; (try dsimp only at hSw); go_simp; all_goals with_reducible rfl)
  try simp only [Act.put, List.setIfInBounds_toArray, List.set_cons_zero, List.set_cons_succ]
  refine wpAnyH_take (i := 30) (oi := { dst := some 141, op := Op.fieldAddr 37 (Operand.tmp 10) 1, type := 0, pos := "outright.go:257", after := #[{ on := 29, ground := Ground.guard }], guard := some (29, false) }) (v := ?vv30) rfl (by kernel_rfl) (by kernel_rfl) (by kernel_rfl) (fun _ _ _ h => h) (Or.inl ⟨by rfl, ?hy30⟩) (by assumption) ?_
  case hy30 => (intro w hSw; (try dsimp only at hSw); go_simp; all_goals with_reducible rfl)
  try simp only [Act.put, List.setIfInBounds_toArray, List.set_cons_zero, List.set_cons_succ]
  refine wpAnyH_take (i := 31) (oi := { dst := some 142, op := Op.load 35 (Operand.tmp 141), type := 35, pos := "outright.go:257", after := #[{ on := 30, ground := Ground.data }, { on := 29, ground := Ground.guard }], guard := some (29, false) }) (v := ?vv31) rfl (by kernel_rfl) (by kernel_rfl) (by kernel_rfl) (fun _ _ _ h => h) (Or.inl ⟨by rfl, ?hy31⟩) (by assumption) ?_
  case hy31 => (intro w hSw; (try dsimp only at hSw); go_simp; all_goals with_reducible rfl)
  try simp only [Act.put, List.setIfInBounds_toArray, List.set_cons_zero, List.set_cons_succ]
  refine wpAnyH_take (i := 32) (oi := { dst := some 143, op := Op.call { callee := Callee.builtin Builtin.len, args := #[Operand.tmp 142], argTypes := #[35] }, type := 3, pos := "outright.go:257", after := #[{ on := 31, ground := Ground.data }, { on := 29, ground := Ground.guard }], guard := some (29, false) }) (v := ?vv32) rfl (by kernel_rfl) (by kernel_rfl) (by kernel_rfl) (fun _ _ _ h => h) (Or.inl ⟨by rfl, ?hy32⟩) (by assumption) ?_
  case hy32 => (intro w hSw; (try dsimp only at hSw); go_simp; all_goals with_reducible rfl)
  try simp only [Act.put, List.setIfInBounds_toArray, List.set_cons_zero, List.set_cons_succ]
  refine wpAnyH_take (i := 33) (oi := { dst := some 144, op := Op.binOp BinOp.neq 3 (Operand.tmp 143) (Operand.const (Value.int IntKind.i64 1)) 3, type := 4, pos := "outright.go:257", after := #[{ on := 32, ground := Ground.data }, { on := 29, ground := Ground.guard }], guard := some (29, false) }) (v := ?vv33) rfl (by kernel_rfl) (by kernel_rfl) (by kernel_rfl) (fun _ _ _ h => h) (Or.inl ⟨by rfl, ?hy33⟩) (by assumption) ?_
  case hy33 => (intro w hSw; (try dsimp only at hSw); go_simp; all_goals with_reducible rfl)
  try simp only [Act.put, List.setIfInBounds_toArray, List.set_cons_zero, List.set_cons_succ]
  refine wpAnyH_take (i := 34) (oi := { dst := some 145, op := Op.pick (Operand.tmp 140) (Operand.const (Value.bool true)) (Operand.tmp 144), type := 4, pos := "outright.go:257", after := #[{ on := 29, ground := Ground.data }, { on := 33, ground := Ground.data }], guard := none }) (v := ?vv34) rfl (by kernel_rfl) (by kernel_rfl) (by kernel_rfl) (fun _ _ _ h => h) (Or.inl ⟨by rfl, ?hy34⟩) (by assumption) ?_
  case hy34 => (intro w hSw; (try dsimp only at hSw); go_simp; all_goals with_reducible rfl)
  try simp only [Act.put, List.setIfInBounds_toArray, List.set_cons_zero, List.set_cons_succ]
  refine wpAnyH_take (i := 35) (oi := { dst := some 146, op := Op.move (Operand.tmp 145), type := 4, pos := "outright.go:257", after := #[{ on := 34, ground := Ground.data }, { on := 29, ground := Ground.chain }], guard := none }) (v := ?vv35) rfl (by kernel_rfl) (by kernel_rfl) (by kernel_rfl) (fun _ _ _ h => h) (Or.inl ⟨by rfl, ?hy35⟩) (by assumption) ?_
  case hy35 => (intro w hSw; (try dsimp only at hSw); go_simp; all_goals with_reducible rfl)
  try simp only [Act.put, List.setIfInBounds_toArray, List.set_cons_zero, List.set_cons_succ]
  refine wpAnyH_take (i := 36) (oi := { dst := some 147, op := Op.fieldAddr 37 (Operand.tmp 11) 1, type := 0, pos := "outright.go:257", after := #[{ on := 35, ground := Ground.guard }], guard := some (35, false) }) (v := ?vv36) rfl (by kernel_rfl) (by kernel_rfl) (by kernel_rfl) (fun _ _ _ h => h) (Or.inl ⟨by rfl, ?hy36⟩) (by assumption) ?_
  case hy36 => (intro w hSw; (try dsimp only at hSw); go_simp; all_goals with_reducible rfl)
  try simp only [Act.put, List.setIfInBounds_toArray, List.set_cons_zero, List.set_cons_succ]
  refine wpAnyH_take (i := 37) (oi := { dst := some 148, op := Op.load 35 (Operand.tmp 147), type := 35, pos := "outright.go:257", after := #[{ on := 36, ground := Ground.data }, { on := 35, ground := Ground.guard }], guard := some (35, false) }) (v := ?vv37) rfl (by kernel_rfl) (by kernel_rfl) (by kernel_rfl) (fun _ _ _ h => h) (Or.inl ⟨by rfl, ?hy37⟩) (by assumption) ?_
  case hy37 => (intro w hSw; (try dsimp only at hSw); go_simp; all_goals with_reducible rfl)
  try simp only [Act.put, List.setIfInBounds_toArray, List.set_cons_zero, List.set_cons_succ]
  refine wpAnyH_take (i := 38) (oi := { dst := some 149, op := Op.call { callee := Callee.builtin Builtin.len, args := #[Operand.tmp 148], argTypes := #[35] }, type := 3, pos := "outright.go:257", after := #[{ on := 37, ground := Ground.data }, { on := 35, ground := Ground.guard }], guard := some (35, false) }) (v := ?vv38) rfl (by kernel_rfl) (by kernel_rfl) (by kernel_rfl) (fun _ _ _ h => h) (Or.inl ⟨by rfl, ?hy38⟩) (by assumption) ?_
  case hy38 => (intro w hSw; (try dsimp only at hSw); go_simp; all_goals with_reducible rfl)
  try simp only [Act.put, List.setIfInBounds_toArray, List.set_cons_zero, List.set_cons_succ]
  refine wpAnyH_take (i := 39) (oi := { dst := some 150, op := Op.binOp BinOp.neq 3 (Operand.tmp 149) (Operand.const (Value.int IntKind.i64 1)) 3, type := 4, pos := "outright.go:257", after := #[{ on := 38, ground := Ground.data }, { on := 35, ground := Ground.guard }], guard := some (35, false) }) (v := ?vv39) rfl (by kernel_rfl) (by kernel_rfl) (by kernel_rfl) (fun _ _ _ h => h) (Or.inl ⟨by rfl, ?hy39⟩) (by assumption) ?_
  case hy39 => (intro w hSw; (try dsimp only at hSw); go_simp; all_goals with_reducible rfl)
  try simp only [Act.put, List.setIfInBounds_toArray, List.set_cons_zero, List.set_cons_succ]
  refine wpAnyH_take (i := 40) (oi := { dst := some 151, op := Op.pick (Operand.tmp 146) (Operand.const (Value.bool true)) (Operand.tmp 150), type := 4, pos := "outright.go:257", after := #[{ on := 35, ground := Ground.data }, { on := 39, ground := Ground.data }], guard := none }) (v := ?vv40) rfl (by kernel_rfl) (by kernel_rfl) (by kernel_rfl) (fun _ _ _ h => h) (Or.inl ⟨by rfl, ?hy40⟩) (by assumption) ?_
  case hy40 => (intro w hSw; (try dsimp only at hSw); go_simp; all_goals with_reducible rfl)
  try simp only [Act.put, List.setIfInBounds_toArray, List.set_cons_zero, List.set_cons_succ]
  refine wpAnyH_done (by kernel_rfl) ?_ _
  have HF19 : Hid (Fs w Wx lo g (b, 64, c) l K) := HF18d.out.below hWx
  have HX19 : Hid (Rb w Wx qx ⟨#[111, 116, 104, 101, 114]⟩ (xb, 1, xc) [szF 5]) := HX18dx.out.below hWx
  have HY19 : Hid (Rb w Wx qy ⟨#[111, 116, 104, 101, 114]⟩ (yb, 1, yc) [szF 5]) := HX18dy.out.below hWx
  clear hHeld hS19 hWx hIW HF18d HX18dx HX18dy HXz
  go_upto_if 151 with fail
  go_cut [4] from 22 (fun v wx => v = .bool false ∧ Wx = wx)
  case first =>
    go_wp2_with fail
    go_meet
    case rel => exact ⟨rfl, rfl⟩
  case rest =>
    obtain ⟨rfl, hcw⟩ := hcut
    subst hcw
    exact (‹∀ (a : Act) (w : World), Code.wp Tryd.prog _ _ a w → _›) _ _ (full_t21 A bd w Wx lo g b c l K qx qy qz xb xc yb yc HT HBd HL HF hK64 HF19 HX19 HY19 HAp _ _ _ _ _ _ _ _ _ _ _ _ _ _ _ _ _ _ _ _ _ _ _ _ _ _ _ _ _ _ _ _ _ _ _ _ _ _ _ _ _ _ _ _ _ _ _ _ _ _ _ _ _ _ _ _ _ _ _ _ _ _ _ _ _ _ _ _ _ _ _ _ _ _ _ _ _ _ _ _ _ _ _ _ _ _ _ _ _ _ _ _ _ _ _ _ _ _ _ _ _ _ _ _ _ _ _ _ _ _ _ _ _ _ _ _ _ _ _ _ _ _ _ _ _ _ _ _ _ _ _ _ _ _ _ _ _ _ _ _ _ _ _ _ _ _ _ _ _ _ _ _ _ _ _ _ _ _ _ _ _ _ _ _ _ _ _ _ _ _ _ _ _ _ _ _ _ _ _ _ _ _ _ _ _ _ _ _ _ _ _ _ _ _ _ _ _ _ _ _ _ _ _ _ _ _ _ _ _ _ _ _ _ _ _ _ _ _ _ _ _ _ _ _ _ _ _ _ _ _ _ _ _ _ _ _ _ _ _ _ _ _ _ _ _ _ _ _ _ _ _ _ _ _ _ _ _ _ _ _ _ _ _ _ _ _ _ _ _ _ _ _ _ _ _ _ _ _ _ _ _ _ _ _ _ _ _ _ _ _ _ _ _ _ _ _ _ _)
end Go.Proofs.YtcadlpmopplkeaaDoor
