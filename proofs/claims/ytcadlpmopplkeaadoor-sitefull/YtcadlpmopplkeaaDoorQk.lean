/- SiteFull from region 43 on. -/
import Derived.Test.YtcadlpmopplkeaaDoorQs
import Derived.BigQuiet
import Derived.Deep.QuietTactic
import Derived.Deep.CutRange
namespace Go.Proofs.YtcadlpmopplkeaaDoor
open Go.RowKit Go.Maps
open Go.Shelf
set_option linter.unusedVariables false
set_option linter.unusedSimpArgs false
set_option maxHeartbeats 40000000 in
set_option maxRecDepth 100000 in
theorem full_t43 (A : Int) (bd : ByteArray) (w A15 : World) (lo g : Nat) (gl : Nat) (c : Nat) (l : List PC) (K : Nat) (qx qy qz qv Bx2 By2 x2c y2c : Nat) (gb : Nat) (y : Nat → SV) (zz : SV) (HBd : Hid (bd.size ≤ 60000)) (HL : Hid (l.length = 64)) (HF : Hid (Fl bd l)) (hK64 : K < 64) (HQL : Hid (Bq w A15 lo g gl c l K gb (badL y zz))) (v18 v19 : Value) (u22 u23 u24 u25 u26 u27 u28 u29 u30 u31 u32 u33 u34 u35 u36 u37 u38 u39 u40 u41 u42 u43 u44 u45 u46 u47 u48 u49 u50 u51 u52 u53 u54 u55 u56 u57 u58 u59 u60 u61 u62 u63 u64 u65 u66 u67 u68 u69 u70 u71 u72 u73 u74 u75 u76 u77 u78 u79 u80 u81 u82 u83 u84 u85 u86 u87 u88 u89 u90 u91 u92 u93 u94 u95 u96 u97 u98 u99 u100 u101 u102 u103 u104 u105 u106 u107 u108 u109 u110 u111 u112 u113 u114 u115 u116 u117 u118 u119 u120 u121 u122 u123 u124 u125 u126 u127 u128 u129 u130 u131 u132 u133 u134 u135 u136 u137 u138 u139 u140 u141 u142 u143 u144 u145 u146 u147 u148 u149 u150 u151 u152 u153 u154 u155 u156 u157 u158 u159 u160 u161 u162 u163 u164 u165 u166 u167 u168 u169 u170 u171 u172 u173 u174 u175 u176 u177 u178 u179 u180 u181 u182 u183 u184 u185 u186 u187 u188 u189 u190 u191 u192 u193 u194 u195 u196 u197 u198 u199 u200 u201 u202 u203 u204 u205 u206 u207 u208 u209 u210 u211 u212 u213 u214 u215 u216 u217 u218 u219 u220 u221 u222 u223 u224 u225 u226 u227 u228 u229 u230 u231 u232 u233 u234 u235 u236 u237 u238 u239 u240 u241 u242 u243 u244 u245 u246 u247 u248 u249 u250 u251 u252 u253 u254 u255 u256 u257 u258 u259 u260 u261 u262 u263 u264 u265 u266 u267 u268 u269 u270 u271 u272 u273 u274 u275 u276 u277 u278 u279 u280 u281 u282 u283 u284 u285 u286 u287 u288 u289 u290 u291 u292 u293 u294 u295 u296 u297 u298 u299 u300 u301 u302 u303 u304 u305 u306 u307 u308 u309 u310 u311 u312 u313 u314 u315 u316 u317 u318 u319 : Value) : Code.wp Tryd.prog (dropS 34 (bodyOf Tryd.f4)) (bodyPost Tryd.prog Tryd.f4 (fun e w' => e = .returned (.bool true) ∧ Below w.heap.size w w')) { tmps := #[.int .i64 A, .string bd, undef, undef, .bool false, .slice (some ⟨gl, 0, none⟩) 64 c, .int .i64 64, .pointer (some ⟨g, 0, none⟩), .int .i64 6, .int .i64 (K : Int), .pointer (some ⟨qx, 0, none⟩), .pointer (some ⟨qy, 0, none⟩), .int .i64 170, .pointer (some ⟨qz, 0, none⟩), .int .i64 7, .slice (some ⟨Bx2, 0, none⟩) 2 x2c, .slice (some ⟨By2, 0, none⟩) 2 y2c, .pointer (some ⟨qv, 0, none⟩), v18, v19, .slice (some ⟨gb, 0, none⟩) 8 8, undef, u22, u23, u24, u25, u26, u27, u28, u29, u30, u31, u32, u33, u34, u35, u36, u37, u38, u39, u40, u41, u42, u43, u44, u45, u46, u47, u48, u49, u50, u51, u52, u53, u54, u55, u56, u57, u58, u59, u60, u61, u62, u63, u64, u65, u66, u67, u68, u69, u70, u71, u72, u73, u74, u75, u76, u77, u78, u79, u80, u81, u82, u83, u84, u85, u86, u87, u88, u89, u90, u91, u92, u93, u94, u95, u96, u97, u98, u99, u100, u101, u102, u103, u104, u105, u106, u107, u108, u109, u110, u111, u112, u113, u114, u115, u116, u117, u118, u119, u120, u121, u122, u123, u124, u125, u126, u127, u128, u129, u130, u131, u132, u133, u134, u135, u136, u137, u138, u139, u140, u141, u142, u143, u144, u145, u146, u147, u148, u149, u150, u151, u152, u153, u154, u155, u156, u157, u158, u159, u160, u161, u162, u163, u164, u165, u166, u167, u168, u169, u170, u171, u172, u173, u174, u175, u176, u177, u178, u179, u180, u181, u182, u183, u184, u185, u186, u187, u188, u189, u190, u191, u192, u193, u194, u195, u196, u197, u198, u199, u200, u201, u202, u203, u204, u205, u206, u207, u208, u209, u210, u211, u212, u213, u214, u215, u216, u217, u218, u219, u220, u221, u222, u223, u224, u225, u226, u227, u228, u229, u230, u231, u232, u233, u234, u235, u236, u237, u238, u239, u240, u241, u242, u243, u244, u245, u246, u247, u248, u249, u250, u251, u252, u253, u254, u255, u256, u257, u258, u259, u260, u261, u262, u263, u264, u265, u266, u267, u268, u269, u270, u271, u272, u273, u274, u275, u276, u277, u278, u279, u280, u281, u282, u283, u284, u285, u286, u287, u288, u289, u290, u291, u292, u293, u294, u295, u296, u297, u298, u299, u300, u301, u302, u303, u304, u305, u306, u307, u308, u309, u310, u311, u312, u313, u314, u315, u316, u317, u318, u319], defers := [] } A15 := by
  conv in (dropS 34 (bodyOf Tryd.f4)) => whnf
  dsimp (config := { failIfUnchanged := false }) only
  go_upto_region 43 with fail
  go_cut [21] from 22 (fun v wx => v = .int .i64 0 ∧ A15 = wx)
  case first =>
    go_wp2_with fail
    go_meet
    case rel => exact ⟨rfl, rfl⟩
  case rest =>
    obtain ⟨rfl, hcw⟩ := hcut
    subst hcw
    go_wp2_with fail
    go_loopw [21] (fun iv wr => ∃ i : Nat, iv = .int .i64 (i : Int) ∧ i ≤ 8 ∧ Hid (Bq w wr lo g gl c l K gb (badL y zz))) (fun iv _ => 8 - (intOf iv).toNat)
    case atStart => exact ⟨0, rfl, by omega, HQL.out⟩
    case round =>
      clear HQL
      obtain ⟨i, rfl, hi, hQ⟩ := hrel
      by_cases hlt : i < 8
      · have l1 : (i : Int) < 8 := by omega
        have l0 : (0 : Int) ≤ (i : Int) := by omega
        obtain ⟨qa, qp, qn, qv, qb, ql, qc, p0, p1, p2, p3, p4, hPut⟩ := hQ.out.step i hlt
        have HPut : Hid (Calls Tryd.prog 14 #[.pointer (some ⟨g, 0, none⟩), .agg #[.string qa, .string qp, .int .i64 qn, .string qv, .slice qb ql qc]] wr fun e w' => e = .returned (.int .i64 170) ∧ Bq w w' lo g gl c l K gb (badL y zz)) := hPut
        clear hPut hQ
        go_wp2_with fail
        go_at_call 14
        refine HPut.out.mono ?_
        rintro e wq ⟨rfl, hQ2⟩
        have HQ2 : Hid (Bq w wq lo g gl c l K gb (badL y zz)) := hQ2
        have HV : Hid (Calls Tryd.prog 15 #[.pointer (some ⟨g, 0, none⟩)] wq fun e w' => e = .returned (.int .i64 2) ∧ w' = wq) := hQ2.fs.2.1.version
        clear hQ2 HPut p0 p1 p2 p3 p4
        go_wp2_with fail
        go_at_call 15
        refine HV.out.mono ?_
        rintro e wv ⟨rfl, hw⟩
        rw [hw]
        clear hw wv HV
        go_wp2_with fail
        go_roundw
        case rel => exact ⟨i + 1, by simp, by omega, HQ2.out⟩
        case measure => first | (simp [intOf]; done) | (simp [intOf]; omega)
      · obtain rfl : i = 8 := by omega
        have l1 : ¬ ((8 : Nat) : Int) < 8 := by omega
        have HE : Hid (Below w.heap.size w wr) := hQ.out.fs.1.bel
        clear hQ
        go_wp2_with fail
        go_ret
        exact ⟨rfl, HE.out⟩
end Go.Proofs.YtcadlpmopplkeaaDoor
