/- SiteFull from region 33 on. -/
import Derived.Test.YtcadlpmopplkeaaDoorQi
import Derived.BigQuiet
import Derived.Deep.QuietTactic
import Derived.Deep.CutRange
namespace Go.Proofs.YtcadlpmopplkeaaDoor
open Go.RowKit Go.Maps
open Go.Shelf
set_option linter.unusedVariables false
set_option linter.unusedSimpArgs false
set_option maxHeartbeats 40000000 in
set_option maxRecDepth 100000 in
theorem full_t33 (A : Int) (bd : ByteArray) (w V11 : World) (lo g : Nat) (b : Option Addr) (c : Nat) (l : List PC) (K : Nat) (qx qy qz qv Bx2 By2 x2c y2c : Nat) (HBd : Hid (bd.size ≤ 60000)) (HL : Hid (l.length = 64)) (HF : Hid (Fl bd l)) (hK64 : K < 64) (HF33 : Hid (Fs w V11 lo g (b, 64, c) l K)) (v18 : Value) (u22 u23 u24 u25 u26 u27 u28 u29 u30 u31 u32 u33 u34 u35 u36 u37 u38 u39 u40 u41 u42 u43 u44 u45 u46 u47 u48 u49 u50 u51 u52 u53 u54 u55 u56 u57 u58 u59 u60 u61 u62 u63 u64 u65 u66 u67 u68 u69 u70 u71 u72 u73 u74 u75 u76 u77 u78 u79 u80 u81 u82 u83 u84 u85 u86 u87 u88 u89 u90 u91 u92 u93 u94 u95 u96 u97 u98 u99 u100 u101 u102 u103 u104 u105 u106 u107 u108 u109 u110 u111 u112 u113 u114 u115 u116 u117 u118 u119 u120 u121 u122 u123 u124 u125 u126 u127 u128 u129 u130 u131 u132 u133 u134 u135 u136 u137 u138 u139 u140 u141 u142 u143 u144 u145 u146 u147 u148 u149 u150 u151 u152 u153 u154 u155 u156 u157 u158 u159 u160 u161 u162 u163 u164 u165 u166 u167 u168 u169 u170 u171 u172 u173 u174 u175 u176 u177 u178 u179 u180 u181 u182 u183 u184 u185 u186 u187 u188 u189 u190 u191 u192 u193 u194 u195 u196 u197 u198 u199 u200 u201 u202 u203 u204 u205 u206 u207 u208 u209 u210 u211 u212 u213 u214 u215 u216 u217 u218 u219 u220 u221 u222 u223 u224 u225 u226 u227 u228 u229 u230 u231 u232 u233 u234 u235 u236 u237 u238 u239 u240 u241 u242 u243 u244 u245 u246 u247 u248 u249 u250 u251 u252 u253 u254 u255 u256 u257 u258 u259 u260 u261 u262 u263 u264 u265 u266 u267 u268 u269 u270 u271 u272 u273 u274 u275 u276 u277 u278 u279 u280 u281 u282 u283 u284 u285 u286 u287 u288 u289 u290 u291 u292 u293 u294 u295 u296 u297 u298 u299 u300 u301 u302 u303 u304 u305 u306 u307 u308 u309 u310 u311 u312 u313 u314 u315 u316 u317 u318 u319 : Value) : Code.wp Tryd.prog (dropS 24 (bodyOf Tryd.f4)) (bodyPost Tryd.prog Tryd.f4 (fun e w' => e = .returned (.bool true) ∧ Below w.heap.size w w')) { tmps := #[.int .i64 A, .string bd, undef, undef, .bool false, .slice b 64 c, .int .i64 64, .pointer (some ⟨g, 0, none⟩), .int .i64 6, .int .i64 (K : Int), .pointer (some ⟨qx, 0, none⟩), .pointer (some ⟨qy, 0, none⟩), .int .i64 170, .pointer (some ⟨qz, 0, none⟩), .int .i64 0, .slice (some ⟨Bx2, 0, none⟩) 2 x2c, .slice (some ⟨By2, 0, none⟩) 2 y2c, .pointer (some ⟨qv, 0, none⟩), v18, .slice none 0 0, undef, undef, u22, u23, u24, u25, u26, u27, u28, u29, u30, u31, u32, u33, u34, u35, u36, u37, u38, u39, u40, u41, u42, u43, u44, u45, u46, u47, u48, u49, u50, u51, u52, u53, u54, u55, u56, u57, u58, u59, u60, u61, u62, u63, u64, u65, u66, u67, u68, u69, u70, u71, u72, u73, u74, u75, u76, u77, u78, u79, u80, u81, u82, u83, u84, u85, u86, u87, u88, u89, u90, u91, u92, u93, u94, u95, u96, u97, u98, u99, u100, u101, u102, u103, u104, u105, u106, u107, u108, u109, u110, u111, u112, u113, u114, u115, u116, u117, u118, u119, u120, u121, u122, u123, u124, u125, u126, u127, u128, u129, u130, u131, u132, u133, u134, u135, u136, u137, u138, u139, u140, u141, u142, u143, u144, u145, u146, u147, u148, u149, u150, u151, u152, u153, u154, u155, u156, u157, u158, u159, u160, u161, u162, u163, u164, u165, u166, u167, u168, u169, u170, u171, u172, u173, u174, u175, u176, u177, u178, u179, u180, u181, u182, u183, u184, u185, u186, u187, u188, u189, u190, u191, u192, u193, u194, u195, u196, u197, u198, u199, u200, u201, u202, u203, u204, u205, u206, u207, u208, u209, u210, u211, u212, u213, u214, u215, u216, u217, u218, u219, u220, u221, u222, u223, u224, u225, u226, u227, u228, u229, u230, u231, u232, u233, u234, u235, u236, u237, u238, u239, u240, u241, u242, u243, u244, u245, u246, u247, u248, u249, u250, u251, u252, u253, u254, u255, u256, u257, u258, u259, u260, u261, u262, u263, u264, u265, u266, u267, u268, u269, u270, u271, u272, u273, u274, u275, u276, u277, u278, u279, u280, u281, u282, u283, u284, u285, u286, u287, u288, u289, u290, u291, u292, u293, u294, u295, u296, u297, u298, u299, u300, u301, u302, u303, u304, u305, u306, u307, u308, u309, u310, u311, u312, u313, u314, u315, u316, u317, u318, u319], defers := [] } V11 := by
  conv in (dropS 24 (bodyOf Tryd.f4)) => whnf
  dsimp (config := { failIfUnchanged := false }) only
  go_upto_region 33 with fail
  obtain ⟨gl, hgl⟩ := R.base (b := b) (n := 64) (c := c) okPg HF33.out.1.row (by rw [HL.out]; omega)
  subst hgl
  obtain ⟨z0b, z0l, z0c, hz0⟩ := HF.out.zero HL.out
  obtain ⟨x0, hx0⟩ : ∃ x : PC, l[0]'(by rw [HL.out]; omega) = x := ⟨_, rfl⟩
  have HX0 : Hid (x0 ∈ l ∧ x0 = flX bd 0 (z0b, z0l, z0c)) := ⟨by rw [← hx0]; exact List.getElem_mem _, by rw [← hx0]; exact hz0⟩
  obtain ⟨P0, hP0⟩ : ∃ P, flP 0 = P := ⟨_, rfl⟩
  have HP0 : Hid (flP 0 = P0) := hP0
  obtain ⟨K2, hK2⟩ : ∃ K2 : Nat, bits .and .i64 (K : Int) 31 = (K2 : Int) := ⟨(((K : Int)) % 32).toNat, by rw [and31]; omega⟩
  have hK32 : K2 ≤ 31 := by rw [and31] at hK2; omega
  obtain ⟨_, _, ec, hcc, _⟩ := HF33.out.1.row.slice
  simp only [sv] at ec
  injection ec with ec1 ec2 ec
  clear ec1 ec2
  subst ec
  rw [HL.out] at hcc
  have hq1 : (K2 : Int) ≤ (c : Int) := by omega
  have hq2 : (0 : Int) ≤ (K2 : Int) := by omega
  have hq3 : (K2 : Int) ≤ 64 := by omega
  have HTk : Hid ((l.take K2).length = K2) := by show _ = _; rw [List.length_take, HL.out]; omega
  have HC0 : Hid (∀ V, Below V11.heap.size V11 V → V.cell? ⟨gl, 0, none⟩ = some (.string aTest) ∧ V.cell? ⟨gl, 1, none⟩ = some (.string P0) ∧ V.cell? ⟨gl, 2, none⟩ = some (.int .i64 200) ∧ V.cell? ⟨gl, 3, none⟩ = some (.string e0S) ∧ V.cell? ⟨gl, 4, none⟩ = some (.slice z0b z0l z0c)) := fun V hV => by
    obtain ⟨p0, p1, p2, p3, p4, _⟩ := R.cellsP (n := 64) (c := c) (HF33.out.below hV).1.row 0 (by rw [HL.out]; omega)
    rw [hz0] at p0 p1 p2 p3 p4
    refine ⟨p0, ?_, p2, p3, p4⟩
    rw [← HP0.out]; exact p1
  clear hz0 hx0 hP0
  have HPgY : Hid (∀ V, Calls Tryd.prog 13 #[.string ⟨#[47, 121]⟩, .string ⟨#[121]⟩] V fun e w' => ∃ y : SV, e = .returned (.agg (pgv ⟨aTest, ⟨#[47, 121]⟩, 200, e0S, y⟩)) ∧ Below V.heap.size V w' ∧ R ECh w' (sv y) [⟨e0S, ⟨#[121]⟩⟩] ∧ ∀ k, (sv y).ownBlock = some k → V.heap.size ≤ k) := fun V => page_any _ _ V
  go_cut [19] from 22 (fun v wx => ∃ (b5 : Option Addr) (c5 : Nat) (yb2 : Option Addr) (yl2 yc2 : Nat), v = .slice b5 (K2 + 2) c5 ∧ Hid (Below V11.heap.size V11 wx ∧ Pr w wx (b5, K2 + 2, c5) (l.take K2 ++ [((⟨aTest, P0, 200, e0S, (z0b, z0l, z0c)⟩, flC bd 0) : PC), ((⟨aTest, ⟨#[47, 121]⟩, 200, e0S, (yb2, yl2, yc2)⟩, [⟨e0S, ⟨#[121]⟩⟩]) : PC)]) ∧ ∀ j, (Value.slice b5 (K2 + 2) c5).ownBlock = some j → V11.heap.size ≤ j))
  case first =>
    have hIW : Below V11.heap.size V11 V11.drew := (Below.refl _ _).drew
    refine wp_region_held_drew (S := (fun V => V.cell? ⟨gl, 0, none⟩ = some (.string aTest) ∧ V.cell? ⟨gl, 1, none⟩ = some (.string P0) ∧ V.cell? ⟨gl, 2, none⟩ = some (.int .i64 200) ∧ V.cell? ⟨gl, 3, none⟩ = some (.string e0S) ∧ V.cell? ⟨gl, 4, none⟩ = some (.slice z0b z0l z0c))) (by kernel_rfl) (HC0.out _ hIW) (fun hHeld => ?_)
    generalize hWg : World.drew _ = W at hIW hHeld ⊢
    clear hWg
    refine wpAnyH_take (i := 0) (oi := { dst := some 239, op := Op.move (Operand.tmp 19), type := 34, pos := "outright.go:273", after := #[], guard := none }) (v := ?vv701) rfl (by kernel_rfl) (by kernel_rfl) (by kernel_rfl) (fun _ _ _ h => h) (Or.inl ⟨by rfl, ?hy701⟩) (by assumption) ?_
    case hy701 => (intro w hSw; (try dsimp only at hSw); go_simp; all_goals with_reducible rfl)
    try simp only [Act.put, List.setIfInBounds_toArray, List.set_cons_zero, List.set_cons_succ]
    refine wpAnyH_take (i := 1) (oi := { dst := some 240, op := Op.move (Operand.tmp 5), type := 34, pos := "outright.go:273", after := #[], guard := none }) (v := ?vv702) rfl (by kernel_rfl) (by kernel_rfl) (by kernel_rfl) (fun _ _ _ h => h) (Or.inl ⟨by rfl, ?hy702⟩) (by assumption) ?_
    case hy702 => (intro w hSw; (try dsimp only at hSw); go_simp; all_goals with_reducible rfl)
    try simp only [Act.put, List.setIfInBounds_toArray, List.set_cons_zero, List.set_cons_succ]
    refine wpAnyH_take (i := 2) (oi := { dst := some 241, op := Op.move (Operand.tmp 9), type := 3, pos := "outright.go:273", after := #[], guard := none }) (v := ?vv703) rfl (by kernel_rfl) (by kernel_rfl) (by kernel_rfl) (fun _ _ _ h => h) (Or.inl ⟨by rfl, ?hy703⟩) (by assumption) ?_
    case hy703 => (intro w hSw; (try dsimp only at hSw); go_simp; all_goals with_reducible rfl)
    try simp only [Act.put, List.setIfInBounds_toArray, List.set_cons_zero, List.set_cons_succ]
    refine wpAnyH_take (i := 3) (oi := { dst := some 242, op := Op.binOp BinOp.and 3 (Operand.tmp 241) (Operand.const (Value.int IntKind.i64 31)) 3, type := 3, pos := "outright.go:273", after := #[{ on := 2, ground := Ground.data }], guard := none }) (v := ?vv704) rfl (by kernel_rfl) (by kernel_rfl) (by kernel_rfl) (fun _ _ _ h => h) (Or.inl ⟨by rfl, ?hy704⟩) (by assumption) ?_
    case hy704 => (intro w hSw; (try dsimp only at hSw); go_simp; all_goals with_reducible rfl)
    try simp only [Act.put, List.setIfInBounds_toArray, List.set_cons_zero, List.set_cons_succ]
    refine wpAnyH_take (i := 4) (oi := { dst := some 243, op := Op.slice 34 (Operand.tmp 240) none (some (Operand.tmp 242)) none, type := 34, pos := "outright.go:273", after := #[{ on := 1, ground := Ground.data }, { on := 3, ground := Ground.data }], guard := none }) (v := ?vv705) rfl (by kernel_rfl) (by kernel_rfl) (by kernel_rfl) (fun _ _ _ h => h) (Or.inl ⟨by rfl, ?hy705⟩) (by assumption) ?_
    case hy705 => (intro w hSw; (try dsimp only at hSw); go_simp; all_goals with_reducible rfl)
    try simp only [Act.put, List.setIfInBounds_toArray, List.set_cons_zero, List.set_cons_succ]
    refine wpAnyH_take (i := 6) (oi := { dst := some 245, op := Op.move (Operand.tmp 5), type := 34, pos := "outright.go:273", after := #[], guard := none }) (v := ?vv706) rfl (by kernel_rfl) (by kernel_rfl) (by kernel_rfl) (fun _ _ _ h => h) (Or.inl ⟨by rfl, ?hy706⟩) (by assumption) ?_
    case hy706 => (intro w hSw; (try dsimp only at hSw); go_simp; all_goals with_reducible rfl)
    try simp only [Act.put, List.setIfInBounds_toArray, List.set_cons_zero, List.set_cons_succ]
    refine wpAnyH_take (i := 7) (oi := { dst := some 246, op := Op.indexAddr 34 (Operand.tmp 245) (Operand.const (Value.int IntKind.i64 0)), type := 0, pos := "outright.go:273", after := #[{ on := 6, ground := Ground.data }], guard := none }) (v := ?vv707) rfl (by kernel_rfl) (by kernel_rfl) (by kernel_rfl) (fun _ _ _ h => h) (Or.inl ⟨by rfl, ?hy707⟩) (by assumption) ?_
    case hy707 => (intro w hSw; (try dsimp only at hSw); go_simp; all_goals with_reducible rfl)
    try simp only [Act.put, List.setIfInBounds_toArray, List.set_cons_zero, List.set_cons_succ]
    refine wpAnyH_take (i := 8) (oi := { dst := some 247, op := Op.load 26 (Operand.tmp 246), type := 26, pos := "outright.go:273", after := #[{ on := 7, ground := Ground.data }], guard := none }) (v := ?vv708) rfl (by kernel_rfl) (by kernel_rfl) (by kernel_rfl) (fun _ _ _ h => h) (Or.inl ⟨by rfl, ?hy708⟩) (by assumption) ?_
    case hy708 => (intro w hSw; (try dsimp only at hSw); go_simp; all_goals with_reducible rfl)
    try simp only [Act.put, List.setIfInBounds_toArray, List.set_cons_zero, List.set_cons_succ]
    refine wpAnyH_ready (rs := [5]) (by kernel_rfl) (by simp) ?_
    refine AllReadyH.cons (o := { dst := some 244, op := Op.call { callee := Callee.builtin Builtin.append, args := #[Operand.tmp 239, Operand.tmp 243], argTypes := #[34, 34] }, type := 34, pos := "outright.go:273", after := #[{ on := 0, ground := Ground.data }, { on := 4, ground := Ground.data }], guard := none }) rfl (fun K hK => ?_) AllReadyH.nil
    obtain ⟨b2, c2, w2, hrun, hP2, hG2, _⟩ := ((Pr.start w).below (HF33.out.below hIW).1.bel).app (.slice (some ⟨gl, 0, none⟩) K2 c) (l.take K2) (In.take (HF33.out.below hIW).1.row.isIn K2 (by rw [HL.out]; omega)) (fun x hx => (HF33.out.below hIW).1.ch x (List.mem_of_mem_take hx)) (by rw [HTk.out]; simp; omega)
    have el : ([] : List PC).length + (l.take K2).length = K2 := by rw [HTk.out]; simp
    rw [el] at hrun hP2 hG2
    rw [List.nil_append] at hP2
    simp only [sv] at hrun hG2
    have hWx : Below V11.heap.size V11 w2 := hIW.trans (hG2.fresh.mono hIW.size)
    have HOw : Hid (∀ j, (Value.slice b2 K2 c2).ownBlock = some j → V11.heap.size ≤ j) := fun j hj => Nat.le_trans hIW.size (hG2.new j hj)
    have rWx : Hid (Pr w w2 (b2, K2, c2) (l.take K2)) := hP2
    clear hP2 hG2 el
    refine step_append_run rfl (.tmp 239) (.tmp 243) 34 34 rfl hrun (by first | rfl | simp [Act.eval, Act.put]) (by first | rfl | simp [Act.eval, Act.put]) ?_
    refine hK.out _ _ (HC0.out _ hWx) (fun hHeld => ?_)
    clear hK K hrun
    try simp only [Act.put, List.setIfInBounds_toArray, List.set_cons_zero, List.set_cons_succ]
    refine wpAnyH_ready (rs := [9]) (by kernel_rfl) (by simp) ?_
    refine AllReadyH.cons (o := { dst := some 248, op := Op.call { callee := Callee.value (Operand.func 13), args := #[Operand.const (Value.string { data := #[47, 121] }), Operand.const (Value.string { data := #[121] })], argTypes := #[9, 9] }, type := 26, pos := "outright.go:273", after := #[{ on := 5, ground := Ground.chain }], guard := none }) rfl (fun K hK => ?_) AllReadyH.nil
    go_simp
    refine (HPgY.out _).mono ?_
    rintro e' Wxx ⟨⟨yb2, yl2, yc2⟩, rfl, bX, hRy, _⟩
    have hWxx : Below V11.heap.size V11 Wxx := hWx.trans (bX.mono hWx.size)
    have rWxx : Hid (Pr w Wxx (b2, K2, c2) (l.take K2)) := rWx.out.below bX
    have HRy : Hid (R ECh Wxx (sv (yb2, yl2, yc2)) [⟨e0S, ⟨#[121]⟩⟩]) := hRy
    clear bX hRy
    unfold pgv
    simp only [sv]
    go_wp2_with fail
    refine hK.out _ _ (HC0.out _ hWxx) (fun hHeld => ?_)
    clear hK K
    try simp only [Act.put, List.setIfInBounds_toArray, List.set_cons_zero, List.set_cons_succ]
    refine wpAnyH_ready (rs := [10]) (by kernel_rfl) (by simp) ?_
    refine AllReadyH.cons (o := { dst := some 249, op := Op.buildSlice 34 2 #[(0, Operand.tmp 247), (1, Operand.tmp 248)], type := 34, pos := "outright.go:273", after := #[{ on := 8, ground := Ground.data }, { on := 9, ground := Ground.data }], guard := none }) rfl (fun K hK => ?_) AllReadyH.nil
    obtain ⟨Wxxx, hV0⟩ : ∃ V, Wxx.alloc (.cells #[.string aTest, .string P0, .int .i64 200, .string e0S, .slice z0b z0l z0c, .string aTest, .string ⟨#[47, 121]⟩, .int .i64 200, .string e0S, .slice yb2 yl2 yc2] 26) = V := ⟨_, rfl⟩
    have hWxxx : Below V11.heap.size V11 Wxxx := by rw [← hV0]; exact hWxx.trans ((bel1 _ _).mono hWxx.size)
    have rWxxx : Hid (Pr w Wxxx (b2, K2, c2) (l.take K2)) := by rw [← hV0]; exact rWxx.out.below (bel1 _ _)
    have HB2 : Hid (R EPg Wxxx (.slice (some ⟨Wxx.heap.size, 0, none⟩) 2 2) [((⟨aTest, P0, 200, e0S, (z0b, z0l, z0c)⟩, flC bd 0) : PC), ((⟨aTest, ⟨#[47, 121]⟩, 200, e0S, (yb2, yl2, yc2)⟩, [⟨e0S, ⟨#[121]⟩⟩]) : PC)]) := by rw [← hV0]; exact R.whole okPg (c := #[.string aTest, .string P0, .int .i64 200, .string e0S, .slice z0b z0l z0c, .string aTest, .string ⟨#[47, 121]⟩, .int .i64 200, .string e0S, .slice yb2 yl2 yc2]) [((⟨aTest, P0, 200, e0S, (z0b, z0l, z0c)⟩, flC bd 0) : PC), ((⟨aTest, ⟨#[47, 121]⟩, 200, e0S, (yb2, yl2, yc2)⟩, [⟨e0S, ⟨#[121]⟩⟩]) : PC)] (by simp) (by rw [heap_al, if_pos rfl]; rfl) rfl
    have HRy2 : Hid (R ECh Wxxx (sv (yb2, yl2, yc2)) [⟨e0S, ⟨#[121]⟩⟩]) := by rw [← hV0]; exact HRy.out.below (bel1 _ _)
    obtain ⟨q2, hq⟩ : ∃ q, Wxx.heap.size = q := ⟨_, rfl⟩
    rw [hq] at HB2
    go_simp
    go_wp2_with fail
    refine hK.out _ _ (HC0.out _ hWxxx) (fun hHeld => ?_)
    clear hK K hV0 hq HRy
    try simp only [Act.put, List.setIfInBounds_toArray, List.set_cons_zero, List.set_cons_succ]
    refine wpAnyH_ready (rs := [11]) (by kernel_rfl) (by simp) ?_
    refine AllReadyH.cons (o := { dst := some 250, op := Op.call { callee := Callee.builtin Builtin.append, args := #[Operand.tmp 244, Operand.tmp 249], argTypes := #[34, 34] }, type := 34, pos := "outright.go:273", after := #[{ on := 5, ground := Ground.data }, { on := 10, ground := Ground.data }, { on := 9, ground := Ground.chain }], guard := none }) rfl (fun K hK => ?_) AllReadyH.nil
    obtain ⟨b5, c5, w5, hrun, hP5, hG5, hK5⟩ := rWxxx.out.app (.slice (some ⟨q2, 0, none⟩) 2 2) [((⟨aTest, P0, 200, e0S, (z0b, z0l, z0c)⟩, flC bd 0) : PC), ((⟨aTest, ⟨#[47, 121]⟩, 200, e0S, (yb2, yl2, yc2)⟩, [⟨e0S, ⟨#[121]⟩⟩]) : PC)] HB2.out.isIn (fun x hx => by
      simp only [List.mem_cons, List.not_mem_nil, or_false] at hx
      rcases hx with hx | hx
      · have e : x = x0 := by rw [hx, HX0.out.2]; unfold flX; rw [HP0.out]
        rw [e]; exact (HF33.out.below hWxxx).1.ch x0 HX0.out.1
      · rw [hx]; exact HRy2.out) (by rw [HTk.out]; simp; omega)
    have el : (l.take K2).length + [((⟨aTest, P0, 200, e0S, (z0b, z0l, z0c)⟩, flC bd 0) : PC), ((⟨aTest, ⟨#[47, 121]⟩, 200, e0S, (yb2, yl2, yc2)⟩, [⟨e0S, ⟨#[121]⟩⟩]) : PC)].length = K2 + 2 := by rw [HTk.out]; rfl
    rw [el] at hrun hP5 hG5
    simp only [sv] at hrun hG5
    have h5 : Below V11.heap.size V11 w5 := hWxxx.trans (hG5.belowB hWxxx.size HOw.out)
    have HOw5 : Hid (∀ j, (Value.slice b5 (K2 + 2) c5).ownBlock = some j → V11.heap.size ≤ j) := fun j hj => by
      rcases hG5.own j hj with e | e
      · exact HOw.out j e
      · exact Nat.le_trans hWxxx.size e
    have HM33 : Hid (Pr w w5 (b5, K2 + 2, c5) (l.take K2 ++ [((⟨aTest, P0, 200, e0S, (z0b, z0l, z0c)⟩, flC bd 0) : PC), ((⟨aTest, ⟨#[47, 121]⟩, 200, e0S, (yb2, yl2, yc2)⟩, [⟨e0S, ⟨#[121]⟩⟩]) : PC)])) := hP5
    clear hP5 hG5 hK5 el
    refine step_append_run rfl (.tmp 244) (.tmp 249) 34 34 rfl hrun (by first | rfl | simp [Act.eval, Act.put]) (by first | rfl | simp [Act.eval, Act.put]) ?_
    refine hK.out _ _ (HC0.out _ h5) (fun hHeld => ?_)
    clear hK K hrun
    try simp only [Act.put, List.setIfInBounds_toArray, List.set_cons_zero, List.set_cons_succ]
    refine wpAnyH_take (i := 12) (oi := { dst := some 19, op := Op.assign (Operand.tmp 250), type := 34, pos := "outright.go:273", after := #[{ on := 11, ground := Ground.data }, { on := 11, ground := Ground.chain }, { on := 0, ground := Ground.phase }, { on := 1, ground := Ground.phase }, { on := 2, ground := Ground.phase }, { on := 3, ground := Ground.phase }, { on := 4, ground := Ground.phase }, { on := 5, ground := Ground.phase }, { on := 6, ground := Ground.phase }, { on := 7, ground := Ground.phase }, { on := 8, ground := Ground.phase }, { on := 9, ground := Ground.phase }, { on := 10, ground := Ground.phase }, { on := 11, ground := Ground.phase }], guard := none }) (v := ?vv709) rfl (by kernel_rfl) (by kernel_rfl) (by kernel_rfl) (fun _ _ _ h => h) (Or.inl ⟨by rfl, ?hy709⟩) (by assumption) ?_
    case hy709 => (intro w hSw; (try dsimp only at hSw); go_simp; all_goals with_reducible rfl)
    try simp only [Act.put, List.setIfInBounds_toArray, List.set_cons_zero, List.set_cons_succ]
    refine wpAnyH_done (by kernel_rfl) ?_ _
    have HE : Hid (Below V11.heap.size V11 w5 ∧ Pr w w5 (b5, K2 + 2, c5) (l.take K2 ++ [((⟨aTest, P0, 200, e0S, (z0b, z0l, z0c)⟩, flC bd 0) : PC), ((⟨aTest, ⟨#[47, 121]⟩, 200, e0S, (yb2, yl2, yc2)⟩, [⟨e0S, ⟨#[121]⟩⟩]) : PC)]) ∧ ∀ j, (Value.slice b5 (K2 + 2) c5).ownBlock = some j → V11.heap.size ≤ j) := ⟨h5, HM33.out, HOw5.out⟩
    clear hHeld
    go_wp2_with fail
    go_meet
    case rel => exact ⟨b5, c5, yb2, yl2, yc2, rfl, HE.out⟩
  case rest =>
    obtain ⟨b5, c5, yb2, yl2, yc2, rfl, hE⟩ := hcut
    have aa := ‹∀ (a : Act) (w : World), Code.wp Tryd.prog _ _ a w → _›
    have hF34 := HF33.out.below hE.out.1
    exact aa _ _ (full_t34 A bd w _ lo g gl c l K qx qy qz qv Bx2 By2 x2c y2c K2 hK32 x0 P0 z0b z0l z0c yb2 yl2 yc2 b5 c5 HBd HL HF hK64 HX0 HP0 HTk hF34 hE.out.2.1 (fun k h1 h2 => by have := HF33.out.1.row.lt k h1; have := hE.out.2.2 k h2; omega) (HC0.out _ hE.out.1) _ _ _ _ _ _ _ _ _ _ _ _ _ _ _ _ _ _ _ _ _ _ _ _ _ _ _ _ _ _ _ _ _ _ _ _ _ _ _ _ _ _ _ _ _ _ _ _ _ _ _ _ _ _ _ _ _ _ _ _ _ _ _ _ _ _ _ _ _ _ _ _ _ _ _ _ _ _ _ _ _ _ _ _ _ _ _ _ _ _ _ _ _ _ _ _ _ _ _ _ _ _ _ _ _ _ _ _ _ _ _ _ _ _ _ _ _ _ _ _ _ _ _ _ _ _ _ _ _ _ _ _ _ _ _ _ _ _ _ _ _ _ _ _ _ _ _ _ _ _ _ _ _ _ _ _ _ _ _ _ _ _ _ _ _ _ _ _ _ _ _ _ _ _ _ _ _ _ _ _ _ _ _ _ _ _ _ _ _ _ _ _ _ _ _ _ _ _ _ _ _ _ _ _ _ _ _ _ _ _ _ _ _ _ _ _ _ _ _ _ _ _ _ _ _ _ _ _ _ _ _ _ _ _ _ _ _ _ _ _ _ _ _ _ _ _ _ _ _ _ _ _ _ _ _ _ _ _ _ _ _ _ _ _ _ _ _ _ _ _ _ _ _ _ _ _ _ _ _ _ _ _ _ _ _ _ _ _ _ _ _ _ _ _ _ _ _ _ _)
end Go.Proofs.YtcadlpmopplkeaaDoor
