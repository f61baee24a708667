/- SiteFull from region 16 on. -/
import Derived.Test.YtcadlpmopplkeaaDoorQo
import Derived.BigQuiet
import Derived.Deep.QuietTactic
import Derived.Deep.CutRange
namespace Go.Proofs.YtcadlpmopplkeaaDoor
open Go.RowKit Go.Maps
open Go.Shelf
set_option linter.unusedVariables false
set_option linter.unusedSimpArgs false
set_option maxHeartbeats 40000000 in
set_option maxRecDepth 100000 in
theorem full_t16 (A : Int) (bd : ByteArray) (w w8 : World) (lo g : Nat) (b : Option Addr) (c : Nat) (l : List PC) (K : Nat) (HT : Hid (Tab w)) (HBd : Hid (bd.size ≤ 60000)) (HL : Hid (l.length = 64)) (HF : Hid (Fl bd l)) (hK64 : K < 64) (HF8 : Hid (Fs w w8 lo g (b, 64, c) l K)) (u22 u23 u24 u25 u26 u27 u28 u29 u30 u31 u32 u33 u34 u35 u36 u37 u38 u39 u40 u41 u42 u43 u44 u45 u46 u47 u48 u49 u50 u51 u52 u53 u54 u55 u56 u57 u58 u59 u60 u61 u62 u63 u64 u65 u66 u67 u68 u69 u70 u71 u72 u73 u74 u75 u76 u77 u78 u79 u80 u81 u82 u83 u84 u85 u86 u87 u88 u89 u90 u91 u92 u93 u94 u95 u96 u97 u98 u99 u100 u101 u102 u103 u104 u105 u106 u107 u108 u109 u110 u111 u112 u113 u114 u115 u116 u117 u118 u119 u120 u121 u122 u123 u124 u125 u126 u127 u128 u129 u130 u131 u132 u133 u134 u135 u136 u137 u138 u139 u140 u141 u142 u143 u144 u145 u146 u147 u148 u149 u150 u151 u152 u153 u154 u155 u156 u157 u158 u159 u160 u161 u162 u163 u164 u165 u166 u167 u168 u169 u170 u171 u172 u173 u174 u175 u176 u177 u178 u179 u180 u181 u182 u183 u184 u185 u186 u187 u188 u189 u190 u191 u192 u193 u194 u195 u196 u197 u198 u199 u200 u201 u202 u203 u204 u205 u206 u207 u208 u209 u210 u211 u212 u213 u214 u215 u216 u217 u218 u219 u220 u221 u222 u223 u224 u225 u226 u227 u228 u229 u230 u231 u232 u233 u234 u235 u236 u237 u238 u239 u240 u241 u242 u243 u244 u245 u246 u247 u248 u249 u250 u251 u252 u253 u254 u255 u256 u257 u258 u259 u260 u261 u262 u263 u264 u265 u266 u267 u268 u269 u270 u271 u272 u273 u274 u275 u276 u277 u278 u279 u280 u281 u282 u283 u284 u285 u286 u287 u288 u289 u290 u291 u292 u293 u294 u295 u296 u297 u298 u299 u300 u301 u302 u303 u304 u305 u306 u307 u308 u309 u310 u311 u312 u313 u314 u315 u316 u317 u318 u319 : Value) : Code.wp Tryd.prog (dropS 9 (bodyOf Tryd.f4)) (bodyPost Tryd.prog Tryd.f4 (fun e w' => e = .returned (.bool true) ∧ Below w.heap.size w w')) { tmps := #[.int .i64 A, .string bd, undef, undef, .bool false, .slice b 64 c, .int .i64 64, .pointer (some ⟨g, 0, none⟩), .int .i64 0, .int .i64 (K : Int), undef, undef, undef, undef, undef, undef, undef, undef, undef, undef, undef, undef, u22, u23, u24, u25, u26, u27, u28, u29, u30, u31, u32, u33, u34, u35, u36, u37, u38, u39, u40, u41, u42, u43, u44, u45, u46, u47, u48, u49, u50, u51, u52, u53, u54, u55, u56, u57, u58, u59, u60, u61, u62, u63, u64, u65, u66, u67, u68, u69, u70, u71, u72, u73, u74, u75, u76, u77, u78, u79, u80, u81, u82, u83, u84, u85, u86, u87, u88, u89, u90, u91, u92, u93, u94, u95, u96, u97, u98, u99, u100, u101, u102, u103, u104, u105, u106, u107, u108, u109, u110, u111, u112, u113, u114, u115, u116, u117, u118, u119, u120, u121, u122, u123, u124, u125, u126, u127, u128, u129, u130, u131, u132, u133, u134, u135, u136, u137, u138, u139, u140, u141, u142, u143, u144, u145, u146, u147, u148, u149, u150, u151, u152, u153, u154, u155, u156, u157, u158, u159, u160, u161, u162, u163, u164, u165, u166, u167, u168, u169, u170, u171, u172, u173, u174, u175, u176, u177, u178, u179, u180, u181, u182, u183, u184, u185, u186, u187, u188, u189, u190, u191, u192, u193, u194, u195, u196, u197, u198, u199, u200, u201, u202, u203, u204, u205, u206, u207, u208, u209, u210, u211, u212, u213, u214, u215, u216, u217, u218, u219, u220, u221, u222, u223, u224, u225, u226, u227, u228, u229, u230, u231, u232, u233, u234, u235, u236, u237, u238, u239, u240, u241, u242, u243, u244, u245, u246, u247, u248, u249, u250, u251, u252, u253, u254, u255, u256, u257, u258, u259, u260, u261, u262, u263, u264, u265, u266, u267, u268, u269, u270, u271, u272, u273, u274, u275, u276, u277, u278, u279, u280, u281, u282, u283, u284, u285, u286, u287, u288, u289, u290, u291, u292, u293, u294, u295, u296, u297, u298, u299, u300, u301, u302, u303, u304, u305, u306, u307, u308, u309, u310, u311, u312, u313, u314, u315, u316, u317, u318, u319], defers := [] } w8 := by
  conv in (dropS 9 (bodyOf Tryd.f4)) => whnf
  dsimp (config := { failIfUnchanged := false }) only
  obtain ⟨I, hI⟩ : ∃ I, itoaS (K : Int) = I := ⟨_, rfl⟩
  have HIT : Hid (∀ V, Below w.heap.size w V → Calls Tryd.prog 9 #[.int .i64 (K : Int)] V fun e w' => e = .returned (.string I) ∧ Below V.heap.size V w') := fun V hV => by rw [← hI]; exact itoa_any (K : Int) (by omega) (by omega) V (HT.out.below hV)
  have hI2 : I.size ≤ 2 := by rw [← hI]; exact (flP_one (by omega)).2.2.1
  have HI : Hid (itoaS (K : Int) = I) := hI
  obtain ⟨P, hP⟩ : ∃ P, (⟨#[47]⟩ : ByteArray) ++ I = P := ⟨_, rfl⟩
  have HP : Hid (flP K = P) := by rw [← hP, ← hI]; rfl
  have HPe : Hid ((⟨#[47]⟩ : ByteArray) ++ I = P) := hP
  have hs1 : ¬ (9223372036854775807 < 1 + I.size) := by omega
  have hs2 : ¬ (9223372036854775807 < bd.size + I.size) := by have := HBd.out; omega
  have H64 : Hid ((⟨#[47, 54, 52]⟩ : ByteArray) = flP 64) := by show _ = _; kernel_rfl
  have HPg : Hid (∀ V, Calls Tryd.prog 13 #[.string ⟨#[47, 54, 52]⟩, .string ⟨#[120]⟩] V fun e w' => ∃ y : SV, e = .returned (.agg (pgv ⟨aTest, flP 64, 200, e0S, y⟩)) ∧ Below V.heap.size V w' ∧ R ECh w' (sv y) [⟨e0S, ⟨#[120]⟩⟩] ∧ ∀ k, (sv y).ownBlock = some k → V.heap.size ≤ k) := fun V => by rw [H64.out]; exact page_any _ _ V
  have HPk : Hid (∀ V, Calls Tryd.prog 13 #[.string P, .string ⟨#[111, 116, 104, 101, 114]⟩] V fun e w' => ∃ y : SV, e = .returned (.agg (pgv ⟨aTest, P, 200, e0S, y⟩)) ∧ Below V.heap.size V w' ∧ R ECh w' (sv y) [⟨e0S, ⟨#[111, 116, 104, 101, 114]⟩⟩] ∧ ∀ k, (sv y).ownBlock = some k → V.heap.size ≤ k) := fun V => page_any _ _ V
  clear hI hI2
  obtain ⟨P64, hP64⟩ : ∃ P, flP 64 = P := ⟨_, rfl⟩
  have HP64 : Hid (flP 64 = P64) := hP64
  rw [hP64] at HPg
  clear hP64
  have HGet : Hid (∀ V, Calls Tryd.prog 12 #[.string P, .slice none 0 0] V fun e w' => e = .returned (.agg (rqv getS httpsS aTest P (.slice none 0 0) e0S)) ∧ Below V.heap.size V w') := fun V => get_any P (none, 0, 0) V
  have HSv2 : Hid (∀ V, Sx V lo g 65 2 (flF l K) (l.map tgP) → Below w.heap.size w V → Calls Tryd.prog 11 #[.pointer (some ⟨g, 0, none⟩), .int .i64 2, .agg (rqv getS httpsS aTest P (.slice none 0 0) e0S)] V fun r w' => Sv othS (fun l => l = [szF 5]) V r w') := fun V h1 h2 => by
    have := serve_2 h1 HF.out HL.out hK64 (HT.out.below h2)
    rw [HP.out] at this
    exact this
  have HSv1 : Hid (∀ V, Sx V lo g 65 2 (flF l K) (l.map tgP) → Below w.heap.size w V → Calls Tryd.prog 11 #[.pointer (some ⟨g, 0, none⟩), .int .i64 1, .agg (rqv getS httpsS aTest P (.slice none 0 0) e0S)] V fun r w' => Sv (bd ++ I) (fun _ => True) V r w') := fun V h1 h2 => by
    have := serve_1 h1 HF.out HL.out hK64 (HT.out.below h2)
    rw [HP.out, HI.out] at this
    exact this
  clear HPg HPk
  go_upto_region 16 with fail
  go_wp2_with fail
  go_at_call 9
  refine (HIT.out _ HF8.out.1.bel).mono ?_
  rintro e w16a ⟨rfl, b1⟩
  have HF16a : Hid (Fs w w16a lo g (b, 64, c) l K) := HF8.out.below b1
  clear b1 HF8 
  go_wp2_with fail
  go_at_call 12
  refine (HGet.out _).mono ?_
  rintro e w16b ⟨rfl, b1⟩
  have HF16b : Hid (Fs w w16b lo g (b, 64, c) l K) := HF16a.out.below b1
  clear b1 HF16a 
  go_wp2_with fail
  go_at_call 11
  refine (HSv2.out _ HF16b.out.2.1 HF16b.out.1.bel).mono ?_
  rintro e w16c ⟨b1, ⟨xb, xl, xc⟩, Lx, rfl, hR, hL, hN⟩
  have HN : Hid (∀ k, (sv (xb, xl, xc)).ownBlock = some k → w.heap.size ≤ k) := fun k hk => Nat.le_trans HF16b.out.1.bel.size (hN k hk)
  subst hL
  obtain rfl : xl = 1 := by
    obtain ⟨_, _, e, _, _⟩ := hR.slice
    simp only [sv] at e
    injection e with _ e2 _
  have HR : Hid (R EFd w16c (sv (xb, 1, xc)) [szF 5]) := hR
  clear hR hN
  have HF16c : Hid (Fs w w16c lo g (b, 64, c) l K) := HF16b.out.below b1
  clear b1 HF16b 
  obtain ⟨qx, hq⟩ : ∃ q, w16c.heap.size = q := ⟨_, rfl⟩
  obtain ⟨Wx, hV⟩ : ∃ V, w16c.alloc (.cells #[.int .i64 200, .slice xb 1 xc, .string ⟨#[111, 116, 104, 101, 114]⟩] 37) = V := ⟨_, rfl⟩
  have b1 : Below w16c.heap.size w16c Wx := by rw [← hV]; exact bel1 _ _
  have HXx : Hid (Rb w Wx qx ⟨#[111, 116, 104, 101, 114]⟩ (xb, 1, xc) [szF 5]) := ⟨by rw [← hV, ← hq, heap_al, if_pos rfl]; rfl, HR.out.below b1, HN.out, by rw [← hq]; exact HF16c.out.1.bel.size⟩
  have HF16d : Hid (Fs w Wx lo g (b, 64, c) l K) := HF16c.out.below b1
  clear b1 HF16c 
  unfold rsv
  try unfold othS
  simp only [sv]
  clear HR HN
  go_upto_region 17 with fail
  try rw [hV]
  try rw [hq]
  clear hV hq
  go_wp2_with fail
  go_at_call 9
  refine (HIT.out _ HF16d.out.1.bel).mono ?_
  rintro e w17a ⟨rfl, b1⟩
  have HF17a : Hid (Fs w w17a lo g (b, 64, c) l K) := HF16d.out.below b1
  have HX17ax : Hid (Rb w w17a qx ⟨#[111, 116, 104, 101, 114]⟩ (xb, 1, xc) [szF 5]) := HXx.out.below b1
  clear b1 HF16d HXx
  go_wp2_with fail
  go_at_call 12
  refine (HGet.out _).mono ?_
  rintro e w17b ⟨rfl, b1⟩
  have HF17b : Hid (Fs w w17b lo g (b, 64, c) l K) := HF17a.out.below b1
  have HX17bx : Hid (Rb w w17b qx ⟨#[111, 116, 104, 101, 114]⟩ (xb, 1, xc) [szF 5]) := HX17ax.out.below b1
  clear b1 HF17a HX17ax
  go_wp2_with fail
  go_at_call 11
  refine (HSv2.out _ HF17b.out.2.1 HF17b.out.1.bel).mono ?_
  rintro e w17c ⟨b1, ⟨yb, yl, yc⟩, Ly, rfl, hR, hL, hN⟩
  have HN : Hid (∀ k, (sv (yb, yl, yc)).ownBlock = some k → w.heap.size ≤ k) := fun k hk => Nat.le_trans HF17b.out.1.bel.size (hN k hk)
  have HAp : Hid (∀ k, (sv (xb, 1, xc)).ownBlock = some k → (sv (yb, yl, yc)).ownBlock ≠ some k) := fun k h1 h2 => by have := HX17bx.out.row.lt k h1; have := hN k h2; omega
  subst hL
  obtain rfl : yl = 1 := by
    obtain ⟨_, _, e, _, _⟩ := hR.slice
    simp only [sv] at e
    injection e with _ e2 _
  have HR : Hid (R EFd w17c (sv (yb, 1, yc)) [szF 5]) := hR
  clear hR hN
  have HF17c : Hid (Fs w w17c lo g (b, 64, c) l K) := HF17b.out.below b1
  have HX17cx : Hid (Rb w w17c qx ⟨#[111, 116, 104, 101, 114]⟩ (xb, 1, xc) [szF 5]) := HX17bx.out.below b1
  clear b1 HF17b HX17bx
  obtain ⟨qy, hq⟩ : ∃ q, w17c.heap.size = q := ⟨_, rfl⟩
  obtain ⟨Wy, hV⟩ : ∃ V, w17c.alloc (.cells #[.int .i64 200, .slice yb 1 yc, .string ⟨#[111, 116, 104, 101, 114]⟩] 37) = V := ⟨_, rfl⟩
  have b1 : Below w17c.heap.size w17c Wy := by rw [← hV]; exact bel1 _ _
  have HXy : Hid (Rb w Wy qy ⟨#[111, 116, 104, 101, 114]⟩ (yb, 1, yc) [szF 5]) := ⟨by rw [← hV, ← hq, heap_al, if_pos rfl]; rfl, HR.out.below b1, HN.out, by rw [← hq]; exact HF17c.out.1.bel.size⟩
  have HF17d : Hid (Fs w Wy lo g (b, 64, c) l K) := HF17c.out.below b1
  have HX17dx : Hid (Rb w Wy qx ⟨#[111, 116, 104, 101, 114]⟩ (xb, 1, xc) [szF 5]) := HX17cx.out.below b1
  clear b1 HF17c HX17cx
  unfold rsv
  try unfold othS
  simp only [sv]
  clear HR HN
  go_upto_region 18 with fail
  try rw [hV]
  try rw [hq]
  clear hV hq
  go_cut [13, 14] from 22 (fun v v' wx => ∃ (qz : Nat) (zb : Option Addr) (zl zc : Nat) (Lz : List Fd), v = .pointer (some ⟨qz, 0, none⟩) ∧ v' = .int .i64 0 ∧ Hid (Fs w wx lo g (b, 64, c) l K ∧ Rb w wx qx ⟨#[111, 116, 104, 101, 114]⟩ (xb, 1, xc) [szF 5] ∧ Rb w wx qy ⟨#[111, 116, 104, 101, 114]⟩ (yb, 1, yc) [szF 5] ∧ Rb w wx qz (bd ++ I) (zb, zl, zc) Lz))
  case first =>
    go_wp2_with fail
    go_at_call 9
    refine (HIT.out _ HF17d.out.1.bel).mono ?_
    rintro e w18a ⟨rfl, b1⟩
    have HF18a : Hid (Fs w w18a lo g (b, 64, c) l K) := HF17d.out.below b1
    have HX18ax : Hid (Rb w w18a qx ⟨#[111, 116, 104, 101, 114]⟩ (xb, 1, xc) [szF 5]) := HX17dx.out.below b1
    have HX18ay : Hid (Rb w w18a qy ⟨#[111, 116, 104, 101, 114]⟩ (yb, 1, yc) [szF 5]) := HXy.out.below b1
    clear b1 HF17d HX17dx HXy
    go_wp2_with fail
    go_at_call 12
    refine (HGet.out _).mono ?_
    rintro e w18b ⟨rfl, b1⟩
    have HF18b : Hid (Fs w w18b lo g (b, 64, c) l K) := HF18a.out.below b1
    have HX18bx : Hid (Rb w w18b qx ⟨#[111, 116, 104, 101, 114]⟩ (xb, 1, xc) [szF 5]) := HX18ax.out.below b1
    have HX18by : Hid (Rb w w18b qy ⟨#[111, 116, 104, 101, 114]⟩ (yb, 1, yc) [szF 5]) := HX18ay.out.below b1
    clear b1 HF18a HX18ax HX18ay
    go_wp2_with fail
    go_at_call 11
    refine (HSv1.out _ HF18b.out.2.1 HF18b.out.1.bel).mono ?_
    rintro e w18c ⟨b1, ⟨zb, zl, zc⟩, Lz, rfl, hR, hL, hN⟩
    have HN : Hid (∀ k, (sv (zb, zl, zc)).ownBlock = some k → w.heap.size ≤ k) := fun k hk => Nat.le_trans HF18b.out.1.bel.size (hN k hk)
    have HR : Hid (R EFd w18c (sv (zb, zl, zc)) Lz) := hR
    clear hR hN hL
    have HF18c : Hid (Fs w w18c lo g (b, 64, c) l K) := HF18b.out.below b1
    have HX18cx : Hid (Rb w w18c qx ⟨#[111, 116, 104, 101, 114]⟩ (xb, 1, xc) [szF 5]) := HX18bx.out.below b1
    have HX18cy : Hid (Rb w w18c qy ⟨#[111, 116, 104, 101, 114]⟩ (yb, 1, yc) [szF 5]) := HX18by.out.below b1
    clear b1 HF18b HX18bx HX18by
    obtain ⟨qz, hq⟩ : ∃ q, w18c.heap.size = q := ⟨_, rfl⟩
    obtain ⟨Wz, hV⟩ : ∃ V, w18c.alloc (.cells #[.int .i64 200, .slice zb zl zc, .string (bd ++ I)] 37) = V := ⟨_, rfl⟩
    have b1 : Below w18c.heap.size w18c Wz := by rw [← hV]; exact bel1 _ _
    have HXz : Hid (Rb w Wz qz (bd ++ I) (zb, zl, zc) Lz) := ⟨by rw [← hV, ← hq, heap_al, if_pos rfl]; rfl, HR.out.below b1, HN.out, by rw [← hq]; exact HF18c.out.1.bel.size⟩
    have HF18d : Hid (Fs w Wz lo g (b, 64, c) l K) := HF18c.out.below b1
    have HX18dx : Hid (Rb w Wz qx ⟨#[111, 116, 104, 101, 114]⟩ (xb, 1, xc) [szF 5]) := HX18cx.out.below b1
    have HX18dy : Hid (Rb w Wz qy ⟨#[111, 116, 104, 101, 114]⟩ (yb, 1, yc) [szF 5]) := HX18cy.out.below b1
    clear b1 HF18c HX18cx HX18cy
    unfold rsv
    try unfold othS
    simp only [sv]
    clear HR HN
    have HE : Hid (Fs w Wz lo g (b, 64, c) l K ∧ Rb w Wz qx ⟨#[111, 116, 104, 101, 114]⟩ (xb, 1, xc) [szF 5] ∧ Rb w Wz qy ⟨#[111, 116, 104, 101, 114]⟩ (yb, 1, yc) [szF 5] ∧ Rb w Wz qz (bd ++ I) (zb, zl, zc) Lz) := ⟨HF18d.out, HX18dx.out, HX18dy.out, HXz.out⟩
    go_wp2_with fail
    try rw [hV]
    try rw [hq]
    go_meet
    case rel => exact ⟨qz, zb, zl, zc, Lz, rfl, rfl, HE.out⟩
  case rest =>
    obtain ⟨qz, zb, zl, zc, Lz, rfl, rfl, hE⟩ := hcut
    exact (‹∀ (a : Act) (w : World), Code.wp Tryd.prog _ _ a w → _›) _ _ (full_t19 A bd w _ lo g b c l K I qx qy qz xb xc yb yc zb zl zc Lz HT HI HBd HL HF hK64 hE.out.1 hE.out.2.1 hE.out.2.2.1 hE.out.2.2.2 HAp _ _ _ _ _ _ _ _ _ _ _ _ _ _ _ _ _ _ _ _ _ _ _ _ _ _ _ _ _ _ _ _ _ _ _ _ _ _ _ _ _ _ _ _ _ _ _ _ _ _ _ _ _ _ _ _ _ _ _ _ _ _ _ _ _ _ _ _ _ _ _ _ _ _ _ _ _ _ _ _ _ _ _ _ _ _ _ _ _ _ _ _ _ _ _ _ _ _ _ _ _ _ _ _ _ _ _ _ _ _ _ _ _ _ _ _ _ _ _ _ _ _ _ _ _ _ _ _ _ _ _ _ _ _ _ _ _ _ _ _ _ _ _ _ _ _ _ _ _ _ _ _ _ _ _ _ _ _ _ _ _ _ _ _ _ _ _ _ _ _ _ _ _ _ _ _ _ _ _ _ _ _ _ _ _ _ _ _ _ _ _ _ _ _ _ _ _ _ _ _ _ _ _ _ _ _ _ _ _ _ _ _ _ _ _ _ _ _ _ _ _ _ _ _ _ _ _ _ _ _ _ _ _ _ _ _ _ _ _ _ _ _ _ _ _ _ _ _ _ _ _ _ _ _ _ _ _ _ _ _ _ _ _ _ _ _ _ _ _ _ _ _ _ _ _ _ _ _ _ _ _ _ _ _ _ _ _ _ _ _ _ _ _ _ _ _ _ _)
end Go.Proofs.YtcadlpmopplkeaaDoor
