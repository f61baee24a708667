/- SiteFull from region 21 on. -/
import Derived.Test.YtcadlpmopplkeaaDoorQg
import Derived.BigQuiet
import Derived.Deep.QuietTactic
import Derived.Deep.CutRange
namespace Go.Proofs.YtcadlpmopplkeaaDoor
open Go.RowKit Go.Maps
open Go.Shelf
set_option linter.unusedVariables false
set_option linter.unusedSimpArgs false
set_option maxHeartbeats 40000000 in
set_option maxRecDepth 100000 in
theorem full_t21 (A : Int) (bd : ByteArray) (w Wx : World) (lo g : Nat) (b : Option Addr) (c : Nat) (l : List PC) (K : Nat) (qx qy qz : Nat) (xb : Option Addr) (xc : Nat) (yb : Option Addr) (yc : Nat) (HT : Hid (Tab w)) (HBd : Hid (bd.size ≤ 60000)) (HL : Hid (l.length = 64)) (HF : Hid (Fl bd l)) (hK64 : K < 64) (HF19 : Hid (Fs w Wx lo g (b, 64, c) l K)) (HX19 : Hid (Rb w Wx qx ⟨#[111, 116, 104, 101, 114]⟩ (xb, 1, xc) [szF 5])) (HY19 : Hid (Rb w Wx qy ⟨#[111, 116, 104, 101, 114]⟩ (yb, 1, yc) [szF 5])) (HAp : Hid (∀ k, (sv (xb, 1, xc)).ownBlock = some k → (sv (yb, 1, yc)).ownBlock ≠ some k)) (u22 u23 u24 u25 u26 u27 u28 u29 u30 u31 u32 u33 u34 u35 u36 u37 u38 u39 u40 u41 u42 u43 u44 u45 u46 u47 u48 u49 u50 u51 u52 u53 u54 u55 u56 u57 u58 u59 u60 u61 u62 u63 u64 u65 u66 u67 u68 u69 u70 u71 u72 u73 u74 u75 u76 u77 u78 u79 u80 u81 u82 u83 u84 u85 u86 u87 u88 u89 u90 u91 u92 u93 u94 u95 u96 u97 u98 u99 u100 u101 u102 u103 u104 u105 u106 u107 u108 u109 u110 u111 u112 u113 u114 u115 u116 u117 u118 u119 u120 u121 u122 u123 u124 u125 u126 u127 u128 u129 u130 u131 u132 u133 u134 u135 u136 u137 u138 u139 u140 u141 u142 u143 u144 u145 u146 u147 u148 u149 u150 u151 u152 u153 u154 u155 u156 u157 u158 u159 u160 u161 u162 u163 u164 u165 u166 u167 u168 u169 u170 u171 u172 u173 u174 u175 u176 u177 u178 u179 u180 u181 u182 u183 u184 u185 u186 u187 u188 u189 u190 u191 u192 u193 u194 u195 u196 u197 u198 u199 u200 u201 u202 u203 u204 u205 u206 u207 u208 u209 u210 u211 u212 u213 u214 u215 u216 u217 u218 u219 u220 u221 u222 u223 u224 u225 u226 u227 u228 u229 u230 u231 u232 u233 u234 u235 u236 u237 u238 u239 u240 u241 u242 u243 u244 u245 u246 u247 u248 u249 u250 u251 u252 u253 u254 u255 u256 u257 u258 u259 u260 u261 u262 u263 u264 u265 u266 u267 u268 u269 u270 u271 u272 u273 u274 u275 u276 u277 u278 u279 u280 u281 u282 u283 u284 u285 u286 u287 u288 u289 u290 u291 u292 u293 u294 u295 u296 u297 u298 u299 u300 u301 u302 u303 u304 u305 u306 u307 u308 u309 u310 u311 u312 u313 u314 u315 u316 u317 u318 u319 : Value) : Code.wp Tryd.prog (dropS 13 (bodyOf Tryd.f4)) (bodyPost Tryd.prog Tryd.f4 (fun e w' => e = .returned (.bool true) ∧ Below w.heap.size w w')) { tmps := #[.int .i64 A, .string bd, undef, undef, .bool false, .slice b 64 c, .int .i64 64, .pointer (some ⟨g, 0, none⟩), .int .i64 0, .int .i64 (K : Int), .pointer (some ⟨qx, 0, none⟩), .pointer (some ⟨qy, 0, none⟩), .int .i64 0, .pointer (some ⟨qz, 0, none⟩), .int .i64 0, undef, undef, undef, undef, undef, undef, undef, u22, u23, u24, u25, u26, u27, u28, u29, u30, u31, u32, u33, u34, u35, u36, u37, u38, u39, u40, u41, u42, u43, u44, u45, u46, u47, u48, u49, u50, u51, u52, u53, u54, u55, u56, u57, u58, u59, u60, u61, u62, u63, u64, u65, u66, u67, u68, u69, u70, u71, u72, u73, u74, u75, u76, u77, u78, u79, u80, u81, u82, u83, u84, u85, u86, u87, u88, u89, u90, u91, u92, u93, u94, u95, u96, u97, u98, u99, u100, u101, u102, u103, u104, u105, u106, u107, u108, u109, u110, u111, u112, u113, u114, u115, u116, u117, u118, u119, u120, u121, u122, u123, u124, u125, u126, u127, u128, u129, u130, u131, u132, u133, u134, u135, u136, u137, u138, u139, u140, u141, u142, u143, u144, u145, u146, u147, u148, u149, u150, u151, u152, u153, u154, u155, u156, u157, u158, u159, u160, u161, u162, u163, u164, u165, u166, u167, u168, u169, u170, u171, u172, u173, u174, u175, u176, u177, u178, u179, u180, u181, u182, u183, u184, u185, u186, u187, u188, u189, u190, u191, u192, u193, u194, u195, u196, u197, u198, u199, u200, u201, u202, u203, u204, u205, u206, u207, u208, u209, u210, u211, u212, u213, u214, u215, u216, u217, u218, u219, u220, u221, u222, u223, u224, u225, u226, u227, u228, u229, u230, u231, u232, u233, u234, u235, u236, u237, u238, u239, u240, u241, u242, u243, u244, u245, u246, u247, u248, u249, u250, u251, u252, u253, u254, u255, u256, u257, u258, u259, u260, u261, u262, u263, u264, u265, u266, u267, u268, u269, u270, u271, u272, u273, u274, u275, u276, u277, u278, u279, u280, u281, u282, u283, u284, u285, u286, u287, u288, u289, u290, u291, u292, u293, u294, u295, u296, u297, u298, u299, u300, u301, u302, u303, u304, u305, u306, u307, u308, u309, u310, u311, u312, u313, u314, u315, u316, u317, u318, u319], defers := [] } Wx := by
  conv in (dropS 13 (bodyOf Tryd.f4)) => whnf
  dsimp (config := { failIfUnchanged := false }) only
  obtain ⟨I, hI⟩ : ∃ I, itoaS (K : Int) = I := ⟨_, rfl⟩
  have HIT : Hid (∀ V, Below w.heap.size w V → Calls Tryd.prog 9 #[.int .i64 (K : Int)] V fun e w' => e = .returned (.string I) ∧ Below V.heap.size V w') := fun V hV => by rw [← hI]; exact itoa_any (K : Int) (by omega) (by omega) V (HT.out.below hV)
  have hI2 : I.size ≤ 2 := by rw [← hI]; exact (flP_one (by omega)).2.2.1
  have HI : Hid (itoaS (K : Int) = I) := hI
  obtain ⟨P, hP⟩ : ∃ P, (⟨#[47]⟩ : ByteArray) ++ I = P := ⟨_, rfl⟩
  have HP : Hid (flP K = P) := by rw [← hP, ← hI]; rfl
  have HPe : Hid ((⟨#[47]⟩ : ByteArray) ++ I = P) := hP
  have hs1 : ¬ (9223372036854775807 < 1 + I.size) := by omega
  have hs2 : ¬ (9223372036854775807 < bd.size + I.size) := by have := HBd.out; omega
  have H64 : Hid ((⟨#[47, 54, 52]⟩ : ByteArray) = flP 64) := by show _ = _; kernel_rfl
  have HPg : Hid (∀ V, Calls Tryd.prog 13 #[.string ⟨#[47, 54, 52]⟩, .string ⟨#[120]⟩] V fun e w' => ∃ y : SV, e = .returned (.agg (pgv ⟨aTest, flP 64, 200, e0S, y⟩)) ∧ Below V.heap.size V w' ∧ R ECh w' (sv y) [⟨e0S, ⟨#[120]⟩⟩] ∧ ∀ k, (sv y).ownBlock = some k → V.heap.size ≤ k) := fun V => by rw [H64.out]; exact page_any _ _ V
  have HPk : Hid (∀ V, Calls Tryd.prog 13 #[.string P, .string ⟨#[111, 116, 104, 101, 114]⟩] V fun e w' => ∃ y : SV, e = .returned (.agg (pgv ⟨aTest, P, 200, e0S, y⟩)) ∧ Below V.heap.size V w' ∧ R ECh w' (sv y) [⟨e0S, ⟨#[111, 116, 104, 101, 114]⟩⟩] ∧ ∀ k, (sv y).ownBlock = some k → V.heap.size ≤ k) := fun V => page_any _ _ V
  clear hI hI2
  obtain ⟨P64, hP64⟩ : ∃ P, flP 64 = P := ⟨_, rfl⟩
  have HP64 : Hid (flP 64 = P64) := hP64
  rw [hP64] at HPg
  clear hP64
  have HGet : Hid (∀ V, Calls Tryd.prog 12 #[.string P, .slice none 0 0] V fun e w' => e = .returned (.agg (rqv getS httpsS aTest P (.slice none 0 0) e0S)) ∧ Below V.heap.size V w') := fun V => get_any P (none, 0, 0) V
  have HSv2 : Hid (∀ V, Sx V lo g 65 2 (flF l K) (l.map tgP) → Below w.heap.size w V → Calls Tryd.prog 11 #[.pointer (some ⟨g, 0, none⟩), .int .i64 2, .agg (rqv getS httpsS aTest P (.slice none 0 0) e0S)] V fun r w' => Sv othS (fun l => l = [szF 5]) V r w') := fun V h1 h2 => by
    have := serve_2 h1 HF.out HL.out hK64 (HT.out.below h2)
    rw [HP.out] at this
    exact this
  have HSv1 : Hid (∀ V, Sx V lo g 65 2 (flF l K) (l.map tgP) → Below w.heap.size w V → Calls Tryd.prog 11 #[.pointer (some ⟨g, 0, none⟩), .int .i64 1, .agg (rqv getS httpsS aTest P (.slice none 0 0) e0S)] V fun r w' => Sv (bd ++ I) (fun _ => True) V r w') := fun V h1 h2 => by
    have := serve_1 h1 HF.out HL.out hK64 (HT.out.below h2)
    rw [HP.out, HI.out] at this
    exact this
  go_upto_region 21 with fail
  have HBw : Hid (Below w.heap.size w Wx) := HF19.out.1.bel
  obtain ⟨Bx, hxb, p0, p1, p2, f0, f1, f2, hset⟩ := R.one_fd (xb := xb) (xc := xc) HX19.out.row
  subst hxb
  have HBx : Hid (w.heap.size ≤ Bx) := HX19.out.new Bx rfl
  obtain ⟨V1, hV1⟩ : ∃ V, ((Wx.setCell ⟨Bx, 0, none⟩ (.string ⟨#[111, 110, 101]⟩)).setCell ⟨Bx, 1, none⟩ (.string ⟨#[]⟩)).setCell ⟨Bx, 2, none⟩ (.bool false) = V := ⟨_, rfl⟩
  have hV1' : setF Wx Bx ⟨⟨#[111, 110, 101]⟩, ⟨#[]⟩, false⟩ = V1 := hV1
  have HBn : Hid (Below w.heap.size w V1) := by rw [← hV1']; exact setF_below HBw.out HBx.out
  have HKx : Hid (K4 Wx V1) := by rw [← hV1']; exact (hset _).2
  have HF21 : Hid (Fs w V1 lo g (b, 64, c) l K) := HF19.out.k4 HKx.out HBn.out
  have HX21 : Hid (Rb w V1 qx ⟨#[111, 116, 104, 101, 114]⟩ (some ⟨Bx, 0, none⟩, 1, xc) [⟨⟨#[111, 110, 101]⟩, ⟨#[]⟩, false⟩]) := HX19.out.k4 HKx.out (by rw [← hV1']; exact (hset _).1)
  have HY21 : Hid (Rb w V1 qy ⟨#[111, 116, 104, 101, 114]⟩ (yb, 1, yc) [szF 5]) := HY19.out.k4 HKx.out (HY19.out.row.stays fun k hk _ => by rw [← hV1']; exact setF_other _ _ _ _ (fun e => HAp.out Bx rfl (by rw [← e]; exact hk)))
  obtain ⟨d1, _⟩ := HX19.out.cells
  simp only [sv] at d1
  clear hset hV1' HX19 HY19 HF19 HKx
  go_cut [4] from 22 (fun v wx => v = .bool false ∧ V1 = wx)
  case first =>
    go_wp2_with fail
    go_meet
    case rel => first | exact ⟨rfl, hV1.symm⟩ | exact ⟨rfl, rfl⟩
  case rest =>
    obtain ⟨rfl, hcw⟩ := hcut
    subst hcw
    go_upto_region 22 with fail
    clear hV1 p0 p1 p2 f0 f1 f2 d1
    obtain ⟨x2b, x2c, V2, e2, hR2, hK2, hO2, hN2, hB2⟩ := app_fd (b := some ⟨Bx, 0, none⟩) (k := 1) (c := xc) HX21.out.row rfl (by omega) ⟨⟨#[116, 119, 111]⟩, ⟨#[]⟩, false⟩
    have HB22 : Hid (Below w.heap.size w V2) := HBn.out.trans (hB2 _ HBn.out.size HX21.out.new)
    have HF22 : Hid (Fs w V2 lo g (b, 64, c) l K) := HF21.out.k4 hK2 HB22.out
    have HX22 : Hid (R EFd V2 (.slice x2b 2 x2c) [⟨⟨#[111, 110, 101]⟩, ⟨#[]⟩, false⟩, ⟨⟨#[116, 119, 111]⟩, ⟨#[]⟩, false⟩]) := hR2
    have HY22 : Hid (Rb w V2 qy ⟨#[111, 116, 104, 101, 114]⟩ (yb, 1, yc) [szF 5]) := HY21.out.k4 hK2 (HY21.out.row.stays fun k hk hl => hO2 k hl (fun e => HAp.out k e hk))
    have HAp2 : Hid (∀ k, (Value.slice x2b 2 x2c).ownBlock = some k → (sv (yb, 1, yc)).ownBlock ≠ some k) := fun k h1 h2 => by
      rcases hN2 k h1 with e | e
      · exact HAp.out k e h2
      · have := HY21.out.row.lt k h2
        omega
    obtain ⟨d1, _⟩ := HX21.out.cells
    simp only [sv] at d1
    replace e2 : Hid _ := e2
    clear hR2 hK2 hO2 hN2 hB2 HBn HF21 HX21 HY21 HAp HBw
    go_upto_region 23 with (at_builtin; refine Lib.wpList_append_run _ rfl _ _ _ _ rfl _ _ rfl rfl _ _ e2.out ?_)
    clear e2 d1
    obtain ⟨y2b, y2c, V3, e3, hR3, hK3, hO3, hN3, hB3⟩ := app_fd (b := yb) (k := 1) (c := yc) HY22.out.row rfl (by omega) ⟨⟨#[116, 104, 114, 101, 101]⟩, ⟨#[]⟩, false⟩
    have HB23 : Hid (Below w.heap.size w V3) := HB22.out.trans (hB3 _ HB22.out.size HY22.out.new)
    have HF23 : Hid (Fs w V3 lo g (b, 64, c) l K) := HF22.out.k4 hK3 HB23.out
    have HX23 : Hid (R EFd V3 (.slice x2b 2 x2c) [⟨⟨#[111, 110, 101]⟩, ⟨#[]⟩, false⟩, ⟨⟨#[116, 119, 111]⟩, ⟨#[]⟩, false⟩]) := HX22.out.stays fun k hk hl => hO3 k hl (fun e => HAp2.out k hk e)
    have HY23 : Hid (R EFd V3 (.slice y2b 2 y2c) [szF 5, ⟨⟨#[116, 104, 114, 101, 101]⟩, ⟨#[]⟩, false⟩]) := hR3
    obtain ⟨d1, _⟩ := HY22.out.cells
    simp only [sv] at d1
    replace e3 : Hid _ := e3
    clear hR3 hK3 hO3 hN3 hB3 HB22 HF22 HX22 HY22 HAp2
    go_upto_region 24 with (at_builtin; refine Lib.wpList_append_run _ rfl _ _ _ _ rfl _ _ rfl rfl _ _ e3.out ?_)
    clear e3 d1
    go_wp2_with fail
    go_at_call 9
    refine (HIT.out _ HF23.out.1.bel).mono ?_
    rintro e w24a ⟨rfl, b1⟩
    have HF24a : Hid (Fs w w24a lo g (b, 64, c) l K) := HF23.out.below b1
    have HX24a : Hid (R EFd w24a (.slice x2b 2 x2c) [⟨⟨#[111, 110, 101]⟩, ⟨#[]⟩, false⟩, ⟨⟨#[116, 119, 111]⟩, ⟨#[]⟩, false⟩]) := HX23.out.below b1
    have HY24a : Hid (R EFd w24a (.slice y2b 2 y2c) [szF 5, ⟨⟨#[116, 104, 114, 101, 101]⟩, ⟨#[]⟩, false⟩]) := HY23.out.below b1
    clear b1 HF23 HX23 HY23
    go_wp2_with fail
    go_at_call 12
    refine (HGet.out _).mono ?_
    rintro e w24b ⟨rfl, b1⟩
    have HF24b : Hid (Fs w w24b lo g (b, 64, c) l K) := HF24a.out.below b1
    have HX24b : Hid (R EFd w24b (.slice x2b 2 x2c) [⟨⟨#[111, 110, 101]⟩, ⟨#[]⟩, false⟩, ⟨⟨#[116, 119, 111]⟩, ⟨#[]⟩, false⟩]) := HX24a.out.below b1
    have HY24b : Hid (R EFd w24b (.slice y2b 2 y2c) [szF 5, ⟨⟨#[116, 104, 114, 101, 101]⟩, ⟨#[]⟩, false⟩]) := HY24a.out.below b1
    clear b1 HF24a HX24a HY24a
    go_wp2_with fail
    go_at_call 11
    refine (HSv2.out _ HF24b.out.2.1 HF24b.out.1.bel).mono ?_
    rintro e w24c ⟨b1, ⟨vb, vl, vc⟩, Lv, rfl, hR, hL, hN⟩
    subst hL
    obtain rfl : vl = 1 := by
      obtain ⟨_, _, e, _, _⟩ := hR.slice
      simp only [sv] at e
      injection e with _ e2 _
    have HR : Hid (R EFd w24c (.slice vb 1 vc) [szF 5]) := hR
    clear hR hN
    have HF24c : Hid (Fs w w24c lo g (b, 64, c) l K) := HF24b.out.below b1
    have HX24c : Hid (R EFd w24c (.slice x2b 2 x2c) [⟨⟨#[111, 110, 101]⟩, ⟨#[]⟩, false⟩, ⟨⟨#[116, 119, 111]⟩, ⟨#[]⟩, false⟩]) := HX24b.out.below b1
    have HY24c : Hid (R EFd w24c (.slice y2b 2 y2c) [szF 5, ⟨⟨#[116, 104, 114, 101, 101]⟩, ⟨#[]⟩, false⟩]) := HY24b.out.below b1
    clear b1 HF24b HX24b HY24b
    obtain ⟨qv, hq⟩ : ∃ q, w24c.heap.size = q := ⟨_, rfl⟩
    obtain ⟨Wv, hV⟩ : ∃ V, w24c.alloc (.cells #[.int .i64 200, .slice vb 1 vc, .string ⟨#[111, 116, 104, 101, 114]⟩] 37) = V := ⟨_, rfl⟩
    have b1 : Below w24c.heap.size w24c Wv := by rw [← hV]; exact bel1 _ _
    have HRv : Hid (R EFd Wv (.slice vb 1 vc) [szF 5]) := HR.out.below b1
    have d1 : Wv.cell? ⟨qv, 1, none⟩ = some (.slice vb 1 vc) := by rw [← hV, ← hq]; exact cell_blk (c := #[.int .i64 200, .slice vb 1 vc, .string ⟨#[111, 116, 104, 101, 114]⟩]) (t := 37) (fz := (0, 0)) (by rw [heap_al, if_pos rfl]) 1
    have HF24d : Hid (Fs w Wv lo g (b, 64, c) l K) := HF24c.out.below b1
    have HX24d : Hid (R EFd Wv (.slice x2b 2 x2c) [⟨⟨#[111, 110, 101]⟩, ⟨#[]⟩, false⟩, ⟨⟨#[116, 119, 111]⟩, ⟨#[]⟩, false⟩]) := HX24c.out.below b1
    have HY24d : Hid (R EFd Wv (.slice y2b 2 y2c) [szF 5, ⟨⟨#[116, 104, 114, 101, 101]⟩, ⟨#[]⟩, false⟩]) := HY24c.out.below b1
    clear b1 HF24c HX24c HY24c
    unfold rsv
    try unfold othS
    simp only [sv]
    go_upto_region 25 with fail
    try rw [hV]
    try rw [hq]
    clear hV hq HR
    obtain ⟨Bx2, hx2, x0, x1', x3', x4⟩ := R.two_fd HX24d.out
    obtain ⟨By2, hy2, y0, y1', y3', y4⟩ := R.two_fd HY24d.out
    obtain ⟨Bv, hv2, v0, v1, v2, _, _, _, _⟩ := R.one_fd HRv.out
    rw [five] at y1' v1
    subst hx2 hy2 hv2
    go_upto_region 27 with fail
    clear x0 x1' x3' x4 y0 y1' y3' y4 v0 v1 v2 d1 HX24d HY24d HRv
    go_cut [18] from 22 (fun v wx => v = .slice none 0 0 ∧ Wv = wx)
    case first =>
      go_wp2_with fail
      go_meet
      case rel => exact ⟨rfl, rfl⟩
    case rest =>
      obtain ⟨rfl, hcw⟩ := hcut
      subst hcw
      exact (‹∀ (a : Act) (w : World), Code.wp Tryd.prog _ _ a w → _›) _ _ (full_t28 A bd w Wv lo g b c l K qx qy qz qv Bx2 By2 x2c y2c P64 HP64 H64 HBd HL HF hK64 HF24d _ _ _ _ _ _ _ _ _ _ _ _ _ _ _ _ _ _ _ _ _ _ _ _ _ _ _ _ _ _ _ _ _ _ _ _ _ _ _ _ _ _ _ _ _ _ _ _ _ _ _ _ _ _ _ _ _ _ _ _ _ _ _ _ _ _ _ _ _ _ _ _ _ _ _ _ _ _ _ _ _ _ _ _ _ _ _ _ _ _ _ _ _ _ _ _ _ _ _ _ _ _ _ _ _ _ _ _ _ _ _ _ _ _ _ _ _ _ _ _ _ _ _ _ _ _ _ _ _ _ _ _ _ _ _ _ _ _ _ _ _ _ _ _ _ _ _ _ _ _ _ _ _ _ _ _ _ _ _ _ _ _ _ _ _ _ _ _ _ _ _ _ _ _ _ _ _ _ _ _ _ _ _ _ _ _ _ _ _ _ _ _ _ _ _ _ _ _ _ _ _ _ _ _ _ _ _ _ _ _ _ _ _ _ _ _ _ _ _ _ _ _ _ _ _ _ _ _ _ _ _ _ _ _ _ _ _ _ _ _ _ _ _ _ _ _ _ _ _ _ _ _ _ _ _ _ _ _ _ _ _ _ _ _ _ _ _ _ _ _ _ _ _ _ _ _ _ _ _ _ _ _ _ _ _ _ _ _ _ _ _ _ _ _ _ _ _ _)
end Go.Proofs.YtcadlpmopplkeaaDoor
