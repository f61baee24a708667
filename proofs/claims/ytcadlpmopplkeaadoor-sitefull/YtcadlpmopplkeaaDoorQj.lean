/- SiteFull from region 36 on. -/
import Derived.Test.YtcadlpmopplkeaaDoorQk
import Derived.BigQuiet
import Derived.Deep.QuietTactic
import Derived.Deep.CutRange
namespace Go.Proofs.YtcadlpmopplkeaaDoor
open Go.RowKit Go.Maps
open Go.Shelf
set_option linter.unusedVariables false
set_option linter.unusedSimpArgs false
set_option maxHeartbeats 40000000 in
set_option maxRecDepth 100000 in
theorem full_t36 (A : Int) (bd : ByteArray) (w V12 : World) (lo g : Nat) (gl : Nat) (c : Nat) (l : List PC) (K : Nat) (qx qy qz qv Bx2 By2 x2c y2c : Nat) (HBd : Hid (bd.size ≤ 60000)) (HL : Hid (l.length = 64)) (HF : Hid (Fl bd l)) (hK64 : K < 64) (HF36 : Hid (Fs w V12 lo g (some ⟨gl, 0, none⟩, 64, c) l K)) (v18 v19 : Value) (u22 u23 u24 u25 u26 u27 u28 u29 u30 u31 u32 u33 u34 u35 u36 u37 u38 u39 u40 u41 u42 u43 u44 u45 u46 u47 u48 u49 u50 u51 u52 u53 u54 u55 u56 u57 u58 u59 u60 u61 u62 u63 u64 u65 u66 u67 u68 u69 u70 u71 u72 u73 u74 u75 u76 u77 u78 u79 u80 u81 u82 u83 u84 u85 u86 u87 u88 u89 u90 u91 u92 u93 u94 u95 u96 u97 u98 u99 u100 u101 u102 u103 u104 u105 u106 u107 u108 u109 u110 u111 u112 u113 u114 u115 u116 u117 u118 u119 u120 u121 u122 u123 u124 u125 u126 u127 u128 u129 u130 u131 u132 u133 u134 u135 u136 u137 u138 u139 u140 u141 u142 u143 u144 u145 u146 u147 u148 u149 u150 u151 u152 u153 u154 u155 u156 u157 u158 u159 u160 u161 u162 u163 u164 u165 u166 u167 u168 u169 u170 u171 u172 u173 u174 u175 u176 u177 u178 u179 u180 u181 u182 u183 u184 u185 u186 u187 u188 u189 u190 u191 u192 u193 u194 u195 u196 u197 u198 u199 u200 u201 u202 u203 u204 u205 u206 u207 u208 u209 u210 u211 u212 u213 u214 u215 u216 u217 u218 u219 u220 u221 u222 u223 u224 u225 u226 u227 u228 u229 u230 u231 u232 u233 u234 u235 u236 u237 u238 u239 u240 u241 u242 u243 u244 u245 u246 u247 u248 u249 u250 u251 u252 u253 u254 u255 u256 u257 u258 u259 u260 u261 u262 u263 u264 u265 u266 u267 u268 u269 u270 u271 u272 u273 u274 u275 u276 u277 u278 u279 u280 u281 u282 u283 u284 u285 u286 u287 u288 u289 u290 u291 u292 u293 u294 u295 u296 u297 u298 u299 u300 u301 u302 u303 u304 u305 u306 u307 u308 u309 u310 u311 u312 u313 u314 u315 u316 u317 u318 u319 : Value) : Code.wp Tryd.prog (dropS 27 (bodyOf Tryd.f4)) (bodyPost Tryd.prog Tryd.f4 (fun e w' => e = .returned (.bool true) ∧ Below w.heap.size w w')) { tmps := #[.int .i64 A, .string bd, undef, undef, .bool false, .slice (some ⟨gl, 0, none⟩) 64 c, .int .i64 64, .pointer (some ⟨g, 0, none⟩), .int .i64 6, .int .i64 (K : Int), .pointer (some ⟨qx, 0, none⟩), .pointer (some ⟨qy, 0, none⟩), .int .i64 170, .pointer (some ⟨qz, 0, none⟩), .int .i64 7, .slice (some ⟨Bx2, 0, none⟩) 2 x2c, .slice (some ⟨By2, 0, none⟩) 2 y2c, .pointer (some ⟨qv, 0, none⟩), v18, v19, undef, undef, u22, u23, u24, u25, u26, u27, u28, u29, u30, u31, u32, u33, u34, u35, u36, u37, u38, u39, u40, u41, u42, u43, u44, u45, u46, u47, u48, u49, u50, u51, u52, u53, u54, u55, u56, u57, u58, u59, u60, u61, u62, u63, u64, u65, u66, u67, u68, u69, u70, u71, u72, u73, u74, u75, u76, u77, u78, u79, u80, u81, u82, u83, u84, u85, u86, u87, u88, u89, u90, u91, u92, u93, u94, u95, u96, u97, u98, u99, u100, u101, u102, u103, u104, u105, u106, u107, u108, u109, u110, u111, u112, u113, u114, u115, u116, u117, u118, u119, u120, u121, u122, u123, u124, u125, u126, u127, u128, u129, u130, u131, u132, u133, u134, u135, u136, u137, u138, u139, u140, u141, u142, u143, u144, u145, u146, u147, u148, u149, u150, u151, u152, u153, u154, u155, u156, u157, u158, u159, u160, u161, u162, u163, u164, u165, u166, u167, u168, u169, u170, u171, u172, u173, u174, u175, u176, u177, u178, u179, u180, u181, u182, u183, u184, u185, u186, u187, u188, u189, u190, u191, u192, u193, u194, u195, u196, u197, u198, u199, u200, u201, u202, u203, u204, u205, u206, u207, u208, u209, u210, u211, u212, u213, u214, u215, u216, u217, u218, u219, u220, u221, u222, u223, u224, u225, u226, u227, u228, u229, u230, u231, u232, u233, u234, u235, u236, u237, u238, u239, u240, u241, u242, u243, u244, u245, u246, u247, u248, u249, u250, u251, u252, u253, u254, u255, u256, u257, u258, u259, u260, u261, u262, u263, u264, u265, u266, u267, u268, u269, u270, u271, u272, u273, u274, u275, u276, u277, u278, u279, u280, u281, u282, u283, u284, u285, u286, u287, u288, u289, u290, u291, u292, u293, u294, u295, u296, u297, u298, u299, u300, u301, u302, u303, u304, u305, u306, u307, u308, u309, u310, u311, u312, u313, u314, u315, u316, u317, u318, u319], defers := [] } V12 := by
  conv in (dropS 27 (bodyOf Tryd.f4)) => whnf
  dsimp (config := { failIfUnchanged := false }) only
  have HPg0 : Hid (∀ V, Calls Tryd.prog 13 #[.string ⟨#[]⟩, .string ⟨#[120]⟩] V fun e w' => ∃ y : SV, e = .returned (.agg (pgv ⟨aTest, ⟨#[]⟩, 200, e0S, y⟩)) ∧ Below V.heap.size V w' ∧ R ECh w' (sv y) [⟨e0S, ⟨#[120]⟩⟩] ∧ ∀ k, (sv y).ownBlock = some k → V.heap.size ≤ k) := fun V => page_any _ _ V
  have HPgS : Hid (∀ V, Calls Tryd.prog 13 #[.string ⟨#[47]⟩, .string ⟨#[120]⟩] V fun e w' => ∃ y : SV, e = .returned (.agg (pgv ⟨aTest, ⟨#[47]⟩, 200, e0S, y⟩)) ∧ Below V.heap.size V w' ∧ R ECh w' (sv y) [⟨e0S, ⟨#[120]⟩⟩] ∧ ∀ k, (sv y).ownBlock = some k → V.heap.size ≤ k) := fun V => page_any _ _ V
  have HYn : Hid (Ysf V12 []) := Ysf.nil _
  go_upto_region 36 with fail
  go_wp2_with fail
  go_at_call 13
  refine (HPg0.out _).mono ?_
  rintro e A0 ⟨⟨y0b, y0l, y0c⟩, rfl, b1, hR, _⟩
  have HFa0 : Hid (Fs w A0 lo g (some ⟨gl, 0, none⟩, 64, c) l K) := HF36.out.below b1
  have HYa0 : Hid (Ysf A0 [(y0b, y0l, y0c)]) := HYn.out.cons b1 hR
  clear b1 hR HF36 HYn
  unfold pgv
  simp only [sv]
  go_wp2_with fail
  go_at_call 13
  refine (HPgS.out _).mono ?_
  rintro e A2 ⟨⟨y2b, y2l, y2c⟩, rfl, b1, hR, _⟩
  have HFa2 : Hid (Fs w A2 lo g (some ⟨gl, 0, none⟩, 64, c) l K) := HFa0.out.below b1
  have HYa2 : Hid (Ysf A2 [(y2b, y2l, y2c), (y0b, y0l, y0c)]) := HYa0.out.cons b1 hR
  clear b1 hR HFa0 HYa0
  unfold pgv
  simp only [sv]
  go_wp2_with fail
  go_at_call 13
  refine (HPgS.out _).mono ?_
  rintro e A3 ⟨⟨y3b, y3l, y3c⟩, rfl, b1, hR, _⟩
  have HFa3 : Hid (Fs w A3 lo g (some ⟨gl, 0, none⟩, 64, c) l K) := HFa2.out.below b1
  have HYa3 : Hid (Ysf A3 [(y3b, y3l, y3c), (y2b, y2l, y2c), (y0b, y0l, y0c)]) := HYa2.out.cons b1 hR
  clear b1 hR HFa2 HYa2
  unfold pgv
  simp only [sv]
  go_wp2_with fail
  go_at_call 13
  refine (HPgS.out _).mono ?_
  rintro e A4 ⟨⟨y4b, y4l, y4c⟩, rfl, b1, hR, _⟩
  have HFa4 : Hid (Fs w A4 lo g (some ⟨gl, 0, none⟩, 64, c) l K) := HFa3.out.below b1
  have HYa4 : Hid (Ysf A4 [(y4b, y4l, y4c), (y3b, y3l, y3c), (y2b, y2l, y2c), (y0b, y0l, y0c)]) := HYa3.out.cons b1 hR
  clear b1 hR HFa3 HYa3
  unfold pgv
  simp only [sv]
  go_wp2_with fail
  go_at_call 13
  refine (HPgS.out _).mono ?_
  rintro e A5 ⟨⟨y5b, y5l, y5c⟩, rfl, b1, hR, _⟩
  have HFa5 : Hid (Fs w A5 lo g (some ⟨gl, 0, none⟩, 64, c) l K) := HFa4.out.below b1
  have HYa5 : Hid (Ysf A5 [(y5b, y5l, y5c), (y4b, y4l, y4c), (y3b, y3l, y3c), (y2b, y2l, y2c), (y0b, y0l, y0c)]) := HYa4.out.cons b1 hR
  clear b1 hR HFa4 HYa4
  unfold pgv
  simp only [sv]
  go_wp2_with fail
  go_at_call 13
  refine (HPgS.out _).mono ?_
  rintro e A6 ⟨⟨y6b, y6l, y6c⟩, rfl, b1, hR, _⟩
  have HFa6 : Hid (Fs w A6 lo g (some ⟨gl, 0, none⟩, 64, c) l K) := HFa5.out.below b1
  have HYa6 : Hid (Ysf A6 [(y6b, y6l, y6c), (y5b, y5l, y5c), (y4b, y4l, y4c), (y3b, y3l, y3c), (y2b, y2l, y2c), (y0b, y0l, y0c)]) := HYa5.out.cons b1 hR
  clear b1 hR HFa5 HYa5
  unfold pgv
  simp only [sv]
  go_wp2_with fail
  go_at_call 13
  refine (HPgS.out _).mono ?_
  rintro e A7 ⟨⟨y7b, y7l, y7c⟩, rfl, b1, hR, _⟩
  have HFa7 : Hid (Fs w A7 lo g (some ⟨gl, 0, none⟩, 64, c) l K) := HFa6.out.below b1
  have HYa7 : Hid (Ysf A7 [(y7b, y7l, y7c), (y6b, y6l, y6c), (y5b, y5l, y5c), (y4b, y4l, y4c), (y3b, y3l, y3c), (y2b, y2l, y2c), (y0b, y0l, y0c)]) := HYa6.out.cons b1 hR
  clear b1 hR HFa6 HYa6
  unfold pgv
  simp only [sv]
  obtain ⟨gb, hgb⟩ : ∃ q, A7.heap.size = q := ⟨_, rfl⟩
  obtain ⟨y, hy⟩ : ∃ y : Nat → SV, y = fun n => ([(y0b, y0l, y0c), (none, 0, 0), (y2b, y2l, y2c), (y3b, y3l, y3c), (y4b, y4l, y4c), (y5b, y5l, y5c), (y6b, y6l, y6c), (y7b, y7l, y7c)] : List SV).getD n (none, 0, 0) := ⟨_, rfl⟩
  obtain ⟨A8, hA8⟩ : ∃ V, A7.alloc (.cells #[.string aTest, .string ⟨#[]⟩, .int .i64 200, .string e0S, .slice y0b y0l y0c, .string ⟨#[]⟩, .string ⟨#[]⟩, .int .i64 0, .string ⟨#[]⟩, .slice none 0 0, .string aTest, .string ⟨#[47]⟩, .int .i64 200, .string e0S, .slice y2b y2l y2c, .string aTest, .string ⟨#[47]⟩, .int .i64 200, .string e0S, .slice y3b y3l y3c, .string aTest, .string ⟨#[47]⟩, .int .i64 200, .string e0S, .slice y4b y4l y4c, .string aTest, .string ⟨#[47]⟩, .int .i64 200, .string e0S, .slice y5b y5l y5c, .string aTest, .string ⟨#[47]⟩, .int .i64 200, .string e0S, .slice y6b y6l y6c, .string aTest, .string ⟨#[47]⟩, .int .i64 200, .string e0S, .slice y7b y7l y7c] 26) = V := ⟨_, rfl⟩
  have HQ8 : Hid (Bq w A8 lo g gl c l K gb (bad0 y)) := by
    have hv : A8 = A7.alloc (.cells (EPg.cs (bad0 y)).toArray 26) := by rw [← hA8, hy]; rfl
    have := Bq.make HFa7.out y (by rw [hy]; intro q hq; refine HYa7.out q ?_; simp only [List.getD_cons_zero, List.getD_cons_succ, List.mem_cons, List.not_mem_nil, or_false] at hq ⊢; rcases hq with h | h | h | h | h | h | h <;> simp [h]) hv
    rw [hgb] at this
    exact this
  clear hy HFa7 HYa7 HPg0 HPgS
  go_upto_region 37 with fail
  try rw [hA8]
  try rw [hgb]
  clear hA8 hgb
  have fr := (HQ8.out.cell 2 (by first | decide | (change _ < 8; decide))).2.2.2.2.2 12
  have pc : A8.cell? ⟨gb, 12, none⟩ = some _ := (HQ8.out.cell 2 (by first | decide | (change _ < 8; decide))).2.2.1
  obtain ⟨A9, hA⟩ : ∃ V, A8.setCell ⟨gb, 12, none⟩ (.int .i64 204) = V := ⟨_, rfl⟩
  have HQ9 : Hid (Bq w A9 lo g gl c l K gb ((bad0 y).set 2 (bad2 y))) := by
    rw [← hA]
    exact HQ8.out.set 2 2 (by first | decide | (change _ < 8; decide)) (by decide) _ (bad2 y) rfl (HQ8.out.pr.ch ((bad0 y)[2]'(by change _ < 8; decide)) (by simp [bad0, List.set]))
  go_upto_region 38 with fail
  try rw [hA]
  clear hA fr pc HQ8
  have fr := (HQ9.out.cell 3 (by first | decide | (change _ < 8; decide))).2.2.2.2.2 17
  have pc : A9.cell? ⟨gb, 17, none⟩ = some _ := (HQ9.out.cell 3 (by first | decide | (change _ < 8; decide))).2.2.1
  obtain ⟨A10, hA⟩ : ∃ V, A9.setCell ⟨gb, 17, none⟩ (.int .i64 600) = V := ⟨_, rfl⟩
  have HQ10 : Hid (Bq w A10 lo g gl c l K gb (((bad0 y).set 2 (bad2 y)).set 3 (bad3 y))) := by
    rw [← hA]
    exact HQ9.out.set 3 2 (by first | decide | (change _ < 8; decide)) (by decide) _ (bad3 y) rfl (HQ9.out.pr.ch ((bad0 y)[3]'(by change _ < 8; decide)) (by simp [bad0, List.set]))
  go_upto_region 39 with fail
  try rw [hA]
  clear hA fr pc HQ9
  have fr := (HQ10.out.cell 4 (by first | decide | (change _ < 8; decide))).2.2.2.2.2 24
  have pc : A10.cell? ⟨gb, 24, none⟩ = some _ := (HQ10.out.cell 4 (by first | decide | (change _ < 8; decide))).2.2.2.2.1
  obtain ⟨A11, hA⟩ : ∃ V, A10.setCell ⟨gb, 24, none⟩ (.slice none 0 0) = V := ⟨_, rfl⟩
  have HQ11 : Hid (Bq w A11 lo g gl c l K gb ((((bad0 y).set 2 (bad2 y)).set 3 (bad3 y)).set 4 (bad4 y))) := by
    rw [← hA]
    exact HQ10.out.set 4 4 (by first | decide | (change _ < 8; decide)) (by decide) _ (bad4 y) rfl (R.nil _ _)
  go_upto_region 40 with fail
  try rw [hA]
  clear hA fr pc HQ10
  have fr := (HQ11.out.cell 5 (by first | decide | (change _ < 8; decide))).2.2.2.2.2 28
  have pc : A11.cell? ⟨gb, 28, none⟩ = some _ := (HQ11.out.cell 5 (by first | decide | (change _ < 8; decide))).2.2.2.1
  obtain ⟨A12, hA⟩ : ∃ V, A11.setCell ⟨gb, 28, none⟩ (.string ⟨#[65, 99, 99, 101, 112, 116]⟩) = V := ⟨_, rfl⟩
  have HQ12 : Hid (Bq w A12 lo g gl c l K gb (((((bad0 y).set 2 (bad2 y)).set 3 (bad3 y)).set 4 (bad4 y)).set 5 (bad5 y))) := by
    rw [← hA]
    exact HQ11.out.set 5 3 (by first | decide | (change _ < 8; decide)) (by decide) _ (bad5 y) rfl (HQ11.out.pr.ch ((bad0 y)[5]'(by change _ < 8; decide)) (by simp [bad0, List.set]))
  go_upto_region 41 with fail
  try rw [hA]
  clear hA fr pc HQ11
  obtain ⟨gz, hgz⟩ : ∃ q, A12.heap.size = q := ⟨_, rfl⟩
  obtain ⟨A13, hA1⟩ : ∃ V, A12.alloc (.cells #[.string ⟨#[]⟩, .string ⟨#[]⟩, .string ⟨#[120]⟩, .string ⟨#[]⟩] 29) = V := ⟨_, rfl⟩
  have HQ13 : Hid (Bq w A13 lo g gl c l K gb (((((bad0 y).set 2 (bad2 y)).set 3 (bad3 y)).set 4 (bad4 y)).set 5 (bad5 y))) := by rw [← hA1]; exact HQ12.out.below (bel1 _ _)
  have HRz : Hid (R ECh A13 (sv (some ⟨gz, 0, none⟩, 2, 2)) twoX) := by
    rw [← hA1, ← hgz]
    exact R.whole okCh (c := #[.string ⟨#[]⟩, .string ⟨#[]⟩, .string ⟨#[120]⟩, .string ⟨#[]⟩]) twoX (by simp [twoX]) (by rw [heap_al, if_pos rfl]; rfl) rfl
  clear HQ12
  have fr := (HQ13.out.cell 6 (by first | decide | (change _ < 8; decide))).2.2.2.2.2 34
  have pc : A13.cell? ⟨gb, 34, none⟩ = some _ := (HQ13.out.cell 6 (by first | decide | (change _ < 8; decide))).2.2.2.2.1
  obtain ⟨A14, hA⟩ : ∃ V, A13.setCell ⟨gb, 34, none⟩ (.slice (some ⟨gz, 0, none⟩) 2 2) = V := ⟨_, rfl⟩
  have HQ14 : Hid (Bq w A14 lo g gl c l K gb ((((((bad0 y).set 2 (bad2 y)).set 3 (bad3 y)).set 4 (bad4 y)).set 5 (bad5 y)).set 6 (bad6 (some ⟨gz, 0, none⟩, 2, 2)))) := by
    rw [← hA]
    exact HQ13.out.set 6 4 (by first | decide | (change _ < 8; decide)) (by decide) _ (bad6 (some ⟨gz, 0, none⟩, 2, 2)) rfl (HRz.out)
  go_upto_region 42 with fail
  try rw [hA]
  clear hA hA1 hgz HRz fr pc HQ13
  have fr := (HQ14.out.cell 7 (by first | decide | (change _ < 8; decide))).2.2.2.2.2 35
  have pc : A14.cell? ⟨gb, 35, none⟩ = some _ := (HQ14.out.cell 7 (by first | decide | (change _ < 8; decide))).1
  obtain ⟨A15, hA⟩ : ∃ V, A14.setCell ⟨gb, 35, none⟩ (.string ⟨#[97, 32, 98]⟩) = V := ⟨_, rfl⟩
  have HQ15 : Hid (Bq w A15 lo g gl c l K gb (((((((bad0 y).set 2 (bad2 y)).set 3 (bad3 y)).set 4 (bad4 y)).set 5 (bad5 y)).set 6 (bad6 (some ⟨gz, 0, none⟩, 2, 2))).set 7 (bad7 y))) := by
    rw [← hA]
    exact HQ14.out.set 7 0 (by first | decide | (change _ < 8; decide)) (by decide) _ (bad7 y) rfl (HQ14.out.pr.ch ((bad0 y)[7]'(by change _ < 8; decide)) (by simp [bad0, List.set]))
  have HQL : Hid (Bq w A15 lo g gl c l K gb (badL y (some ⟨gz, 0, none⟩, 2, 2))) := HQ15.out
  go_cut [1] from 22 (fun v wx => v = .string bd ∧ A15 = wx)
  case first =>
    go_wp2_with fail
    go_meet
    case rel => exact ⟨rfl, by first | exact hA.symm | exact hA | rfl⟩
  case rest =>
    obtain ⟨rfl, hcw⟩ := hcut
    subst hcw
    exact (‹∀ (a : Act) (w : World), Code.wp Tryd.prog _ _ a w → _›) _ _ (full_t43 A bd w A15 lo g gl c l K qx qy qz qv Bx2 By2 x2c _ gb y _ HBd HL HF hK64 HQL _ _ _ _ _ _ _ _ _ _ _ _ _ _ _ _ _ _ _ _ _ _ _ _ _ _ _ _ _ _ _ _ _ _ _ _ _ _ _ _ _ _ _ _ _ _ _ _ _ _ _ _ _ _ _ _ _ _ _ _ _ _ _ _ _ _ _ _ _ _ _ _ _ _ _ _ _ _ _ _ _ _ _ _ _ _ _ _ _ _ _ _ _ _ _ _ _ _ _ _ _ _ _ _ _ _ _ _ _ _ _ _ _ _ _ _ _ _ _ _ _ _ _ _ _ _ _ _ _ _ _ _ _ _ _ _ _ _ _ _ _ _ _ _ _ _ _ _ _ _ _ _ _ _ _ _ _ _ _ _ _ _ _ _ _ _ _ _ _ _ _ _ _ _ _ _ _ _ _ _ _ _ _ _ _ _ _ _ _ _ _ _ _ _ _ _ _ _ _ _ _ _ _ _ _ _ _ _ _ _ _ _ _ _ _ _ _ _ _ _ _ _ _ _ _ _ _ _ _ _ _ _ _ _ _ _ _ _ _ _ _ _ _ _ _ _ _ _ _ _ _ _ _ _ _ _ _ _ _ _ _ _ _ _ _ _ _ _ _ _ _ _ _ _ _ _ _ _ _ _ _ _ _ _ _ _ _ _ _ _ _ _ _ _ _ _ _ _ _ _)
end Go.Proofs.YtcadlpmopplkeaaDoor
