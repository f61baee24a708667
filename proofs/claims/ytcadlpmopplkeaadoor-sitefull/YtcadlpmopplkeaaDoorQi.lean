/- SiteFull from region 34 on. -/
import Derived.Test.YtcadlpmopplkeaaDoorQj
import Derived.BigQuiet
import Derived.Deep.QuietTactic
import Derived.Deep.CutRange
namespace Go.Proofs.YtcadlpmopplkeaaDoor
open Go.RowKit Go.Maps
open Go.Shelf
set_option linter.unusedVariables false
set_option linter.unusedSimpArgs false
set_option maxHeartbeats 40000000 in
set_option maxRecDepth 100000 in
theorem full_t34 (A : Int) (bd : ByteArray) (w w5 : World) (lo g : Nat) (gl : Nat) (c : Nat) (l : List PC) (K : Nat) (qx qy qz qv Bx2 By2 x2c y2c : Nat) (K2 : Nat) (hK32 : K2 ≤ 31) (x0 : PC) (P0 : ByteArray) (z0b : Option Addr) (z0l z0c : Nat) (yb2 : Option Addr) (yl2 yc2 : Nat) (b5 : Option Addr) (c5 : Nat) (HBd : Hid (bd.size ≤ 60000)) (HL : Hid (l.length = 64)) (HF : Hid (Fl bd l)) (hK64 : K < 64) (HX0 : Hid (x0 ∈ l ∧ x0 = flX bd 0 (z0b, z0l, z0c))) (HP0 : Hid (flP 0 = P0)) (HTk : Hid ((l.take K2).length = K2)) (HF34 : Hid (Fs w w5 lo g (some ⟨gl, 0, none⟩, 64, c) l K)) (HM33 : Hid (Pr w w5 (b5, K2 + 2, c5) (l.take K2 ++ [((⟨aTest, P0, 200, e0S, (z0b, z0l, z0c)⟩, flC bd 0) : PC), ((⟨aTest, ⟨#[47, 121]⟩, 200, e0S, (yb2, yl2, yc2)⟩, [⟨e0S, ⟨#[121]⟩⟩]) : PC)]))) (HAp : Hid (∀ k, (sv (some ⟨gl, 0, none⟩, 64, c)).ownBlock = some k → (Value.slice b5 (K2 + 2) c5).ownBlock ≠ some k)) (HC0 : Hid (w5.cell? ⟨gl, 0, none⟩ = some (.string aTest) ∧ w5.cell? ⟨gl, 1, none⟩ = some (.string P0) ∧ w5.cell? ⟨gl, 2, none⟩ = some (.int .i64 200) ∧ w5.cell? ⟨gl, 3, none⟩ = some (.string e0S) ∧ w5.cell? ⟨gl, 4, none⟩ = some (.slice z0b z0l z0c))) (v18 : Value) (u22 u23 u24 u25 u26 u27 u28 u29 u30 u31 u32 u33 u34 u35 u36 u37 u38 u39 u40 u41 u42 u43 u44 u45 u46 u47 u48 u49 u50 u51 u52 u53 u54 u55 u56 u57 u58 u59 u60 u61 u62 u63 u64 u65 u66 u67 u68 u69 u70 u71 u72 u73 u74 u75 u76 u77 u78 u79 u80 u81 u82 u83 u84 u85 u86 u87 u88 u89 u90 u91 u92 u93 u94 u95 u96 u97 u98 u99 u100 u101 u102 u103 u104 u105 u106 u107 u108 u109 u110 u111 u112 u113 u114 u115 u116 u117 u118 u119 u120 u121 u122 u123 u124 u125 u126 u127 u128 u129 u130 u131 u132 u133 u134 u135 u136 u137 u138 u139 u140 u141 u142 u143 u144 u145 u146 u147 u148 u149 u150 u151 u152 u153 u154 u155 u156 u157 u158 u159 u160 u161 u162 u163 u164 u165 u166 u167 u168 u169 u170 u171 u172 u173 u174 u175 u176 u177 u178 u179 u180 u181 u182 u183 u184 u185 u186 u187 u188 u189 u190 u191 u192 u193 u194 u195 u196 u197 u198 u199 u200 u201 u202 u203 u204 u205 u206 u207 u208 u209 u210 u211 u212 u213 u214 u215 u216 u217 u218 u219 u220 u221 u222 u223 u224 u225 u226 u227 u228 u229 u230 u231 u232 u233 u234 u235 u236 u237 u238 u239 u240 u241 u242 u243 u244 u245 u246 u247 u248 u249 u250 u251 u252 u253 u254 u255 u256 u257 u258 u259 u260 u261 u262 u263 u264 u265 u266 u267 u268 u269 u270 u271 u272 u273 u274 u275 u276 u277 u278 u279 u280 u281 u282 u283 u284 u285 u286 u287 u288 u289 u290 u291 u292 u293 u294 u295 u296 u297 u298 u299 u300 u301 u302 u303 u304 u305 u306 u307 u308 u309 u310 u311 u312 u313 u314 u315 u316 u317 u318 u319 : Value) : Code.wp Tryd.prog (dropS 25 (bodyOf Tryd.f4)) (bodyPost Tryd.prog Tryd.f4 (fun e w' => e = .returned (.bool true) ∧ Below w.heap.size w w')) { tmps := #[.int .i64 A, .string bd, undef, undef, .bool false, .slice (some ⟨gl, 0, none⟩) 64 c, .int .i64 64, .pointer (some ⟨g, 0, none⟩), .int .i64 6, .int .i64 (K : Int), .pointer (some ⟨qx, 0, none⟩), .pointer (some ⟨qy, 0, none⟩), .int .i64 170, .pointer (some ⟨qz, 0, none⟩), .int .i64 0, .slice (some ⟨Bx2, 0, none⟩) 2 x2c, .slice (some ⟨By2, 0, none⟩) 2 y2c, .pointer (some ⟨qv, 0, none⟩), v18, .slice b5 (K2 + 2) c5, undef, undef, u22, u23, u24, u25, u26, u27, u28, u29, u30, u31, u32, u33, u34, u35, u36, u37, u38, u39, u40, u41, u42, u43, u44, u45, u46, u47, u48, u49, u50, u51, u52, u53, u54, u55, u56, u57, u58, u59, u60, u61, u62, u63, u64, u65, u66, u67, u68, u69, u70, u71, u72, u73, u74, u75, u76, u77, u78, u79, u80, u81, u82, u83, u84, u85, u86, u87, u88, u89, u90, u91, u92, u93, u94, u95, u96, u97, u98, u99, u100, u101, u102, u103, u104, u105, u106, u107, u108, u109, u110, u111, u112, u113, u114, u115, u116, u117, u118, u119, u120, u121, u122, u123, u124, u125, u126, u127, u128, u129, u130, u131, u132, u133, u134, u135, u136, u137, u138, u139, u140, u141, u142, u143, u144, u145, u146, u147, u148, u149, u150, u151, u152, u153, u154, u155, u156, u157, u158, u159, u160, u161, u162, u163, u164, u165, u166, u167, u168, u169, u170, u171, u172, u173, u174, u175, u176, u177, u178, u179, u180, u181, u182, u183, u184, u185, u186, u187, u188, u189, u190, u191, u192, u193, u194, u195, u196, u197, u198, u199, u200, u201, u202, u203, u204, u205, u206, u207, u208, u209, u210, u211, u212, u213, u214, u215, u216, u217, u218, u219, u220, u221, u222, u223, u224, u225, u226, u227, u228, u229, u230, u231, u232, u233, u234, u235, u236, u237, u238, u239, u240, u241, u242, u243, u244, u245, u246, u247, u248, u249, u250, u251, u252, u253, u254, u255, u256, u257, u258, u259, u260, u261, u262, u263, u264, u265, u266, u267, u268, u269, u270, u271, u272, u273, u274, u275, u276, u277, u278, u279, u280, u281, u282, u283, u284, u285, u286, u287, u288, u289, u290, u291, u292, u293, u294, u295, u296, u297, u298, u299, u300, u301, u302, u303, u304, u305, u306, u307, u308, u309, u310, u311, u312, u313, u314, u315, u316, u317, u318, u319], defers := [] } w5 := by
  conv in (dropS 25 (bodyOf Tryd.f4)) => whnf
  dsimp (config := { failIfUnchanged := false }) only
  go_upto_region 34 with fail
  obtain ⟨p0, p1, p2, p3, p4⟩ := HC0.out
  obtain ⟨W6, hW6⟩ : ∃ V, w5.alloc (.cells #[.string aTest, .string P0, .int .i64 200, .string e0S, .slice z0b z0l z0c] 26) = V := ⟨_, rfl⟩
  have b6 : Below w5.heap.size w5 W6 := by rw [← hW6]; exact bel1 _ _
  have HI6 : In EPg W6 (.slice (some ⟨w5.heap.size, 0, none⟩) 1 1) [((⟨aTest, P0, 200, e0S, (z0b, z0l, z0c)⟩, flC bd 0) : PC)] := by rw [← hW6]; exact in_one (E := EPg) _ _ ((⟨aTest, P0, 200, e0S, (z0b, z0l, z0c)⟩, flC bd 0) : PC) #[.string aTest, .string P0, .int .i64 200, .string e0S, .slice z0b z0l z0c] 26 (0, 0) (by rw [heap_al, if_pos rfl]) rfl
  have HXe : Hid (((⟨aTest, P0, 200, e0S, (z0b, z0l, z0c)⟩, flC bd 0) : PC) = x0) := by show _ = _; rw [HX0.out.2]; unfold flX; rw [HP0.out]
  obtain ⟨b7, c7, w7, e7, hP7, hG7, _⟩ := (HM33.out.below b6).app _ [((⟨aTest, P0, 200, e0S, (z0b, z0l, z0c)⟩, flC bd 0) : PC)] HI6 (fun x hx => by rw [List.mem_singleton.1 hx, HXe.out]; exact (HF34.out.below b6).1.ch x0 HX0.out.1) (by rw [List.length_append, HTk.out]; simp; omega)
  have el : (l.take K2 ++ [((⟨aTest, P0, 200, e0S, (z0b, z0l, z0c)⟩, flC bd 0) : PC), ((⟨aTest, ⟨#[47, 121]⟩, 200, e0S, (yb2, yl2, yc2)⟩, [⟨e0S, ⟨#[121]⟩⟩]) : PC)]).length + [((⟨aTest, P0, 200, e0S, (z0b, z0l, z0c)⟩, flC bd 0) : PC)].length = K2 + 3 := by rw [List.length_append, HTk.out]; rfl
  rw [el] at e7 hP7 hG7
  simp only [sv] at e7 hG7
  have HF35 : Hid (Fs w w7 lo g (some ⟨gl, 0, none⟩, 64, c) l K) := (HF34.out.below b6).gr (HM33.out.below b6).row hG7 (fun k h1 => HAp.out k h1) hP7.bel
  have HNw3 : Hid (Calls Tryd.prog 10 #[.slice b7 (K2 + 3) c7] w7 fun e w' => NwP (l.take K2 ++ [((⟨aTest, P0, 200, e0S, (z0b, z0l, z0c)⟩, flC bd 0) : PC), ((⟨aTest, ⟨#[47, 121]⟩, 200, e0S, (yb2, yl2, yc2)⟩, [⟨e0S, ⟨#[121]⟩⟩]) : PC)] ++ [((⟨aTest, P0, 200, e0S, (z0b, z0l, z0c)⟩, flC bd 0) : PC)]) w7 e w') := hP7.new_any
  have HNE3 : Hid (nwE (l.take K2 ++ [((⟨aTest, P0, 200, e0S, (z0b, z0l, z0c)⟩, flC bd 0) : PC), ((⟨aTest, ⟨#[47, 121]⟩, 200, e0S, (yb2, yl2, yc2)⟩, [⟨e0S, ⟨#[121]⟩⟩]) : PC)] ++ [((⟨aTest, P0, 200, e0S, (z0b, z0l, z0c)⟩, flC bd 0) : PC)]) = 7) := by
    rw [HXe.out]
    exact tw_seven HF.out HBd.out HL.out K2 (by omega) _ x0 HX0.out.1
  obtain ⟨LS3, hLS3⟩ : ∃ LS, l.take K2 ++ [((⟨aTest, P0, 200, e0S, (z0b, z0l, z0c)⟩, flC bd 0) : PC), ((⟨aTest, ⟨#[47, 121]⟩, 200, e0S, (yb2, yl2, yc2)⟩, [⟨e0S, ⟨#[121]⟩⟩]) : PC)] ++ [((⟨aTest, P0, 200, e0S, (z0b, z0l, z0c)⟩, flC bd 0) : PC)] = LS := ⟨_, rfl⟩
  rw [hLS3] at HNw3 HNE3
  replace e7 : Hid _ := e7
  clear HF34 HM33 b6 HI6 HXe hP7 hG7 el hLS3 HAp HC0 HTk HX0 HP0
  go_upto_region 35 with (at_builtin; refine Lib.wpList_append_run _ rfl _ _ _ _ rfl _ _ rfl rfl _ _ e7.out ?_)
  clear e7 hW6 p0 p1 p2 p3 p4
  go_cut [14] from 22 (fun v wx => v = .int .i64 7 ∧ Hid (Fs w wx lo g (some ⟨gl, 0, none⟩, 64, c) l K))
  case first =>
    go_wp2_with fail
    go_at_call 10
    refine HNw3.out.mono ?_
    rintro e V12 ⟨b12, h⟩
    rcases h with ⟨_, rfl⟩ | ⟨h, _⟩
    · rw [HNE3.out]
      have HF36 : Hid (Fs w V12 lo g (some ⟨gl, 0, none⟩, 64, c) l K) := HF35.out.below b12
      clear b12 HF35 HNw3 HNE3
      go_wp2_with fail
      go_meet
      case rel => exact ⟨rfl, HF36.out⟩
    · exact absurd (h.symm.trans HNE3.out) (by decide)
  case rest =>
    obtain ⟨rfl, hF36⟩ := hcut
    have aa := ‹∀ (a : Act) (w : World), Code.wp Tryd.prog _ _ a w → _›
    exact aa _ _ (full_t36 A bd w _ lo g gl c l K qx qy qz qv Bx2 By2 x2c y2c HBd HL HF hK64 hF36 _ _ _ _ _ _ _ _ _ _ _ _ _ _ _ _ _ _ _ _ _ _ _ _ _ _ _ _ _ _ _ _ _ _ _ _ _ _ _ _ _ _ _ _ _ _ _ _ _ _ _ _ _ _ _ _ _ _ _ _ _ _ _ _ _ _ _ _ _ _ _ _ _ _ _ _ _ _ _ _ _ _ _ _ _ _ _ _ _ _ _ _ _ _ _ _ _ _ _ _ _ _ _ _ _ _ _ _ _ _ _ _ _ _ _ _ _ _ _ _ _ _ _ _ _ _ _ _ _ _ _ _ _ _ _ _ _ _ _ _ _ _ _ _ _ _ _ _ _ _ _ _ _ _ _ _ _ _ _ _ _ _ _ _ _ _ _ _ _ _ _ _ _ _ _ _ _ _ _ _ _ _ _ _ _ _ _ _ _ _ _ _ _ _ _ _ _ _ _ _ _ _ _ _ _ _ _ _ _ _ _ _ _ _ _ _ _ _ _ _ _ _ _ _ _ _ _ _ _ _ _ _ _ _ _ _ _ _ _ _ _ _ _ _ _ _ _ _ _ _ _ _ _ _ _ _ _ _ _ _ _ _ _ _ _ _ _ _ _ _ _ _ _ _ _ _ _ _ _ _ _ _ _ _ _ _ _ _ _ _ _ _ _ _ _ _ _ _ _ _)
end Go.Proofs.YtcadlpmopplkeaaDoor
