/- SiteFull from region 28 on. -/
import Derived.Test.YtcadlpmopplkeaaDoorQh
import Derived.BigQuiet
import Derived.Deep.QuietTactic
import Derived.Deep.CutRange
namespace Go.Proofs.YtcadlpmopplkeaaDoor
open Go.RowKit Go.Maps
open Go.Shelf
set_option linter.unusedVariables false
set_option linter.unusedSimpArgs false
set_option maxHeartbeats 40000000 in
set_option maxRecDepth 100000 in
theorem full_t28 (A : Int) (bd : ByteArray) (w Wv : World) (lo g : Nat) (b : Option Addr) (c : Nat) (l : List PC) (K : Nat) (qx qy qz qv Bx2 By2 x2c y2c : Nat) (P64 : ByteArray) (HP64 : Hid (flP 64 = P64)) (H64 : Hid ((⟨#[47, 54, 52]⟩ : ByteArray) = flP 64)) (HBd : Hid (bd.size ≤ 60000)) (HL : Hid (l.length = 64)) (HF : Hid (Fl bd l)) (hK64 : K < 64) (HF24d : Hid (Fs w Wv lo g (b, 64, c) l K)) (u22 u23 u24 u25 u26 u27 u28 u29 u30 u31 u32 u33 u34 u35 u36 u37 u38 u39 u40 u41 u42 u43 u44 u45 u46 u47 u48 u49 u50 u51 u52 u53 u54 u55 u56 u57 u58 u59 u60 u61 u62 u63 u64 u65 u66 u67 u68 u69 u70 u71 u72 u73 u74 u75 u76 u77 u78 u79 u80 u81 u82 u83 u84 u85 u86 u87 u88 u89 u90 u91 u92 u93 u94 u95 u96 u97 u98 u99 u100 u101 u102 u103 u104 u105 u106 u107 u108 u109 u110 u111 u112 u113 u114 u115 u116 u117 u118 u119 u120 u121 u122 u123 u124 u125 u126 u127 u128 u129 u130 u131 u132 u133 u134 u135 u136 u137 u138 u139 u140 u141 u142 u143 u144 u145 u146 u147 u148 u149 u150 u151 u152 u153 u154 u155 u156 u157 u158 u159 u160 u161 u162 u163 u164 u165 u166 u167 u168 u169 u170 u171 u172 u173 u174 u175 u176 u177 u178 u179 u180 u181 u182 u183 u184 u185 u186 u187 u188 u189 u190 u191 u192 u193 u194 u195 u196 u197 u198 u199 u200 u201 u202 u203 u204 u205 u206 u207 u208 u209 u210 u211 u212 u213 u214 u215 u216 u217 u218 u219 u220 u221 u222 u223 u224 u225 u226 u227 u228 u229 u230 u231 u232 u233 u234 u235 u236 u237 u238 u239 u240 u241 u242 u243 u244 u245 u246 u247 u248 u249 u250 u251 u252 u253 u254 u255 u256 u257 u258 u259 u260 u261 u262 u263 u264 u265 u266 u267 u268 u269 u270 u271 u272 u273 u274 u275 u276 u277 u278 u279 u280 u281 u282 u283 u284 u285 u286 u287 u288 u289 u290 u291 u292 u293 u294 u295 u296 u297 u298 u299 u300 u301 u302 u303 u304 u305 u306 u307 u308 u309 u310 u311 u312 u313 u314 u315 u316 u317 u318 u319 : Value) : Code.wp Tryd.prog (dropS 19 (bodyOf Tryd.f4)) (bodyPost Tryd.prog Tryd.f4 (fun e w' => e = .returned (.bool true) ∧ Below w.heap.size w w')) { tmps := #[.int .i64 A, .string bd, undef, undef, .bool false, .slice b 64 c, .int .i64 64, .pointer (some ⟨g, 0, none⟩), .int .i64 0, .int .i64 (K : Int), .pointer (some ⟨qx, 0, none⟩), .pointer (some ⟨qy, 0, none⟩), .int .i64 0, .pointer (some ⟨qz, 0, none⟩), .int .i64 0, .slice (some ⟨Bx2, 0, none⟩) 2 x2c, .slice (some ⟨By2, 0, none⟩) 2 y2c, .pointer (some ⟨qv, 0, none⟩), .slice none 0 0, undef, undef, undef, u22, u23, u24, u25, u26, u27, u28, u29, u30, u31, u32, u33, u34, u35, u36, u37, u38, u39, u40, u41, u42, u43, u44, u45, u46, u47, u48, u49, u50, u51, u52, u53, u54, u55, u56, u57, u58, u59, u60, u61, u62, u63, u64, u65, u66, u67, u68, u69, u70, u71, u72, u73, u74, u75, u76, u77, u78, u79, u80, u81, u82, u83, u84, u85, u86, u87, u88, u89, u90, u91, u92, u93, u94, u95, u96, u97, u98, u99, u100, u101, u102, u103, u104, u105, u106, u107, u108, u109, u110, u111, u112, u113, u114, u115, u116, u117, u118, u119, u120, u121, u122, u123, u124, u125, u126, u127, u128, u129, u130, u131, u132, u133, u134, u135, u136, u137, u138, u139, u140, u141, u142, u143, u144, u145, u146, u147, u148, u149, u150, u151, u152, u153, u154, u155, u156, u157, u158, u159, u160, u161, u162, u163, u164, u165, u166, u167, u168, u169, u170, u171, u172, u173, u174, u175, u176, u177, u178, u179, u180, u181, u182, u183, u184, u185, u186, u187, u188, u189, u190, u191, u192, u193, u194, u195, u196, u197, u198, u199, u200, u201, u202, u203, u204, u205, u206, u207, u208, u209, u210, u211, u212, u213, u214, u215, u216, u217, u218, u219, u220, u221, u222, u223, u224, u225, u226, u227, u228, u229, u230, u231, u232, u233, u234, u235, u236, u237, u238, u239, u240, u241, u242, u243, u244, u245, u246, u247, u248, u249, u250, u251, u252, u253, u254, u255, u256, u257, u258, u259, u260, u261, u262, u263, u264, u265, u266, u267, u268, u269, u270, u271, u272, u273, u274, u275, u276, u277, u278, u279, u280, u281, u282, u283, u284, u285, u286, u287, u288, u289, u290, u291, u292, u293, u294, u295, u296, u297, u298, u299, u300, u301, u302, u303, u304, u305, u306, u307, u308, u309, u310, u311, u312, u313, u314, u315, u316, u317, u318, u319], defers := [] } Wv := by
  conv in (dropS 19 (bodyOf Tryd.f4)) => whnf
  dsimp (config := { failIfUnchanged := false }) only
  go_upto_region 28 with fail
  have HPg2 : Hid (∀ V, Calls Tryd.prog 13 #[.string ⟨#[47, 54, 52]⟩, .string ⟨#[120]⟩] V fun e w' => ∃ y : SV, e = .returned (.agg (pgv ⟨aTest, P64, 200, e0S, y⟩)) ∧ Below V.heap.size V w' ∧ R ECh w' (sv y) [⟨e0S, ⟨#[120]⟩⟩] ∧ ∀ k, (sv y).ownBlock = some k → V.heap.size ≤ k) := fun V => by rw [H64.out, HP64.out]; exact page_any _ _ V
  obtain ⟨mb, mc, V4, e4, hP4, hG4, _⟩ := ((Pr.start w).below HF24d.out.1.bel).app (.slice b 64 c) l HF24d.out.1.row.isIn HF24d.out.1.ch (by rw [HL.out]; simp)
  have el : ([] : List PC).length + l.length = 64 := by rw [HL.out]; rfl
  rw [el] at e4 hP4 hG4
  rw [List.nil_append] at hP4
  simp only [sv] at e4 hG4
  have HF28 : Hid (Fs w V4 lo g (b, 64, c) l K) := HF24d.out.below hG4.fresh
  have HM28 : Hid (Pr w V4 (mb, 64, mc) l) := hP4
  have HApm : Hid (∀ k, (sv (b, 64, c)).ownBlock = some k → (Value.slice mb 64 mc).ownBlock ≠ some k) := fun k h1 h2 => by have := HF24d.out.1.row.lt k h1; have := hG4.new k h2; omega
  replace e4 : Hid _ := e4
  clear hP4 hG4 el HF24d
  go_wp2_with (at_builtin; refine Lib.wpList_append_run _ rfl _ _ _ _ rfl _ _ rfl rfl _ _ e4.out ?_)
  clear e4
  go_at_call 13
  refine (HPg2.out _).mono ?_
  rintro e V5 ⟨⟨ub, ul, uc⟩, rfl, b5, hR5, _⟩
  have HF28b : Hid (Fs w V5 lo g (b, 64, c) l K) := HF28.out.below b5
  have HM28b : Hid (Pr w V5 (mb, 64, mc) l) := HM28.out.below b5
  obtain ⟨V6, hV6⟩ : ∃ V, V5.alloc (.cells #[.string aTest, .string P64, .int .i64 200, .string e0S, .slice ub ul uc] 26) = V := ⟨_, rfl⟩
  have hV6' : V5.alloc (.cells (pgv ⟨aTest, P64, 200, e0S, (ub, ul, uc)⟩) 26) = V6 := hV6
  obtain ⟨h1, _⟩ := one_page ⟨aTest, P64, 200, e0S, (ub, ul, uc)⟩ [⟨e0S, ⟨#[120]⟩⟩] hR5
  rw [hV6'] at h1
  have b6 : Below V5.heap.size V5 V6 := by rw [← hV6]; exact bel1 _ _
  obtain ⟨nb, nc, V7, e7, hP7, hG7, _⟩ := (HM28b.out.below b6).app _ [((⟨aTest, P64, 200, e0S, (ub, ul, uc)⟩ : Pg), [(⟨e0S, ⟨#[120]⟩⟩ : Ch)])] h1 (fun x hx => by rw [List.mem_singleton.1 hx]; exact hR5.below b6) (by rw [HL.out]; simp)
  have el : l.length + [((⟨aTest, P64, 200, e0S, (ub, ul, uc)⟩ : Pg), [(⟨e0S, ⟨#[120]⟩⟩ : Ch)])].length = 65 := by rw [HL.out]; rfl
  rw [el] at e7 hP7 hG7
  simp only [sv] at e7
  have HF29 : Hid (Fs w V7 lo g (b, 64, c) l K) := (HF28b.out.below b6).gr (HM28b.out.below b6).row hG7 (fun k h2 => HApm.out k h2) hP7.bel
  have HM29 : Hid (Pr w V7 (nb, 65, nc) (l ++ [((⟨aTest, P64, 200, e0S, (ub, ul, uc)⟩ : Pg), [(⟨e0S, ⟨#[120]⟩⟩ : Ch)])])) := hP7
  have HApn : Hid (∀ k, (sv (b, 64, c)).ownBlock = some k → (Value.slice nb 65 nc).ownBlock ≠ some k) := fun k h2 h3 => by
    rcases hG7.own k h3 with e | e
    · exact HApm.out k h2 e
    · have := (HF28b.out.below b6).1.row.lt k h2
      omega
  have HNw : Hid (Calls Tryd.prog 10 #[.slice nb 65 nc] V7 fun e w' => NwP (l ++ [((⟨aTest, P64, 200, e0S, (ub, ul, uc)⟩ : Pg), [(⟨e0S, ⟨#[120]⟩⟩ : Ch)])]) V7 e w') := hP7.new_any
  have HNE : Hid (nwE (l ++ [((⟨aTest, P64, 200, e0S, (ub, ul, uc)⟩ : Pg), [(⟨e0S, ⟨#[120]⟩⟩ : Ch)])]) = 6) := HF.out.more HBd.out HL.out _ (pg_one _ _ _ (by rw [← HP64.out]; exact (flP_one (by omega)).1) (by decide))
  replace e7 : Hid _ := e7
  unfold pgv
  simp only [sv]
  clear h1 hV6' hP7 hG7 el b5 hR5 b6 HM28 HF28 HM28b HF28b HApm HPg2
  go_upto_region 29 with (at_builtin; refine Lib.wpList_append_run _ rfl _ _ _ _ rfl _ _ rfl rfl _ _ e7.out ?_)
  clear e7 hV6
  go_wp2_with fail
  go_at_call 10
  refine HNw.out.mono ?_
  rintro e V8 ⟨b8, h⟩
  rcases h with ⟨_, rfl⟩ | ⟨h, _⟩
  · rw [HNE.out]
    have HF30 : Hid (Fs w V8 lo g (b, 64, c) l K) := HF29.out.below b8
    have HM30 : Hid (Pr w V8 (nb, 65, nc) (l ++ [((⟨aTest, P64, 200, e0S, (ub, ul, uc)⟩ : Pg), [(⟨e0S, ⟨#[120]⟩⟩ : Ch)])])) := HM29.out.below b8
    clear b8 HF29 HM29 HNw HNE
    go_upto_region 30 with fail
    obtain ⟨x64, hx64⟩ : ∃ x : PC, ((⟨aTest, P64, 200, e0S, (ub, ul, uc)⟩ : Pg), [(⟨e0S, ⟨#[120]⟩⟩ : Ch)]) = x := ⟨_, rfl⟩
    rw [hx64] at HM30
    obtain ⟨gn, hgn⟩ := R.base (b := nb) (n := 65) (c := nc) okPg HM30.out.row (by simp)
    subst hgn
    clear hx64
    have HPgN : Hid (∀ V, Calls Tryd.prog 13 #[.string ⟨#[110, 111, 32, 112, 97, 116, 104]⟩, .string ⟨#[120]⟩] V fun e w' => ∃ y : SV, e = .returned (.agg (pgv ⟨aTest, ⟨#[110, 111, 32, 112, 97, 116, 104]⟩, 200, e0S, y⟩)) ∧ Below V.heap.size V w' ∧ R ECh w' (sv y) [⟨e0S, ⟨#[120]⟩⟩] ∧ ∀ k, (sv y).ownBlock = some k → V.heap.size ≤ k) := fun V => page_any _ _ V
    have hk65 : (K : Int) < 65 := by omega
    have hk0 : (0 : Int) ≤ (K : Int) := by omega
    go_wp2_with fail
    go_at_call 13
    refine (HPgN.out _).mono ?_
    rintro e V9 ⟨⟨kb, kl, kc⟩, rfl, b9, hR9, _⟩
    have HF30b : Hid (Fs w V9 lo g (b, 64, c) l K) := HF30.out.below b9
    have HM30b : Hid (Pr w V9 (some ⟨gn, 0, none⟩, 65, nc) (l ++ [x64])) := HM30.out.below b9
    have hKl : K < (l ++ [x64]).length := by rw [List.length_append, HL.out]; simp; omega
    obtain ⟨p0, p1, p2, p3, p4, pf⟩ := R.cellsP (n := 65) (c := nc) HM30b.out.row K hKl
    have f0 := pf (K * 5)
    have f1 := pf (K * 5 + 1)
    have f2 := pf (K * 5 + 2)
    have f3 := pf (K * 5 + 3)
    have f4 := pf (K * 5 + 4)
    obtain ⟨h31, hK31⟩ := HM30b.out.setP K hKl ((⟨aTest, ⟨#[110, 111, 32, 112, 97, 116, 104]⟩, 200, e0S, (kb, kl, kc)⟩, [⟨e0S, ⟨#[120]⟩⟩]) : PC) hR9
    obtain ⟨V10, hV10⟩ : ∃ V, ((((V9.setCell ⟨gn, K * 5, none⟩ (.string aTest)).setCell ⟨gn, K * 5 + 1, none⟩ (.string ⟨#[110, 111, 32, 112, 97, 116, 104]⟩)).setCell ⟨gn, K * 5 + 2, none⟩ (.int .i64 200)).setCell ⟨gn, K * 5 + 3, none⟩ (.string e0S)).setCell ⟨gn, K * 5 + 4, none⟩ (.slice kb kl kc) = V := ⟨_, rfl⟩
    have hV10' : setP V9 gn K ⟨aTest, ⟨#[110, 111, 32, 112, 97, 116, 104]⟩, 200, e0S, (kb, kl, kc)⟩ = V10 := hV10
    simp only at h31 hK31
    have HApX : Hid (∀ k, (sv (b, 64, c)).ownBlock = some k → V10.heap[k]? = V9.heap[k]?) := fun k hk => by
      rw [← hV10']
      exact setP_other _ _ _ _ _ (fun e => HApn.out k hk (by rw [e]; rfl))
    rw [hV10'] at h31 hK31
    have HF31 : Hid (Fs w V10 lo g (b, 64, c) l K) := HF30b.out.kf hK31 h31.bel HApX.out
    have HNw2 : Hid (Calls Tryd.prog 10 #[.slice (some ⟨gn, 0, none⟩) 65 nc] V10 fun e w' => NwP ((l ++ [x64]).set K (⟨aTest, ⟨#[110, 111, 32, 112, 97, 116, 104]⟩, 200, e0S, (kb, kl, kc)⟩, [⟨e0S, ⟨#[120]⟩⟩])) V10 e w') := h31.new_any
    have HNE2 : Hid (nwE ((l ++ [x64]).set K (⟨aTest, ⟨#[110, 111, 32, 112, 97, 116, 104]⟩, 200, e0S, (kb, kl, kc)⟩, [⟨e0S, ⟨#[120]⟩⟩])) = 170) := nw_bad (x := (⟨aTest, ⟨#[110, 111, 32, 112, 97, 116, 104]⟩, 200, e0S, (kb, kl, kc)⟩, [⟨e0S, ⟨#[120]⟩⟩])) (List.mem_iff_getElem.2 ⟨K, by rw [List.length_set]; exact hKl, by simp⟩) (no_pg _)
    obtain ⟨LS, hLS⟩ : ∃ LS, (l ++ [x64]).set K (⟨aTest, ⟨#[110, 111, 32, 112, 97, 116, 104]⟩, 200, e0S, (kb, kl, kc)⟩, [⟨e0S, ⟨#[120]⟩⟩]) = LS := ⟨_, rfl⟩
    rw [hLS] at HNw2 HNE2
    unfold pgv
    simp only [sv] at p4 ⊢
    clear h31 hK31 hV10' pf HApX HM30 HM30b HF30 HF30b b9 hR9 hLS HApn
    go_upto_region 31 with fail
    try rw [hV10]
    clear hV10 p0 p1 p2 p3 p4 hKl f0 f1 f2 f3 f4 hk65 hk0
    go_wp2_with fail
    go_at_call 10
    refine HNw2.out.mono ?_
    rintro e V11 ⟨b11, h⟩
    rcases h with ⟨_, rfl⟩ | ⟨h, _⟩
    · rw [HNE2.out]
      have HF33 : Hid (Fs w V11 lo g (b, 64, c) l K) := HF31.out.below b11
      clear b11 HF31 HNw2 HNE2
      go_upto_region 32 with fail
      go_cut [19] from 22 (fun v wx => v = .slice none 0 0 ∧ V11 = wx)
      case first =>
        go_wp2_with fail
        go_meet
        case rel => exact ⟨rfl, rfl⟩
      case rest =>
        obtain ⟨rfl, hcw⟩ := hcut
        subst hcw
        exact (‹∀ (a : Act) (w : World), Code.wp Tryd.prog _ _ a w → _›) _ _ (full_t33 A bd w V11 lo g b c l K qx qy qz qv Bx2 By2 x2c y2c HBd HL HF hK64 HF33 _ _ _ _ _ _ _ _ _ _ _ _ _ _ _ _ _ _ _ _ _ _ _ _ _ _ _ _ _ _ _ _ _ _ _ _ _ _ _ _ _ _ _ _ _ _ _ _ _ _ _ _ _ _ _ _ _ _ _ _ _ _ _ _ _ _ _ _ _ _ _ _ _ _ _ _ _ _ _ _ _ _ _ _ _ _ _ _ _ _ _ _ _ _ _ _ _ _ _ _ _ _ _ _ _ _ _ _ _ _ _ _ _ _ _ _ _ _ _ _ _ _ _ _ _ _ _ _ _ _ _ _ _ _ _ _ _ _ _ _ _ _ _ _ _ _ _ _ _ _ _ _ _ _ _ _ _ _ _ _ _ _ _ _ _ _ _ _ _ _ _ _ _ _ _ _ _ _ _ _ _ _ _ _ _ _ _ _ _ _ _ _ _ _ _ _ _ _ _ _ _ _ _ _ _ _ _ _ _ _ _ _ _ _ _ _ _ _ _ _ _ _ _ _ _ _ _ _ _ _ _ _ _ _ _ _ _ _ _ _ _ _ _ _ _ _ _ _ _ _ _ _ _ _ _ _ _ _ _ _ _ _ _ _ _ _ _ _ _ _ _ _ _ _ _ _ _ _ _ _ _ _ _ _ _ _ _ _ _ _ _ _ _ _ _ _ _ _ _)
    · exact absurd (h.symm.trans HNE2.out) (by decide)
  · exact absurd (h.symm.trans HNE.out) (by decide)
end Go.Proofs.YtcadlpmopplkeaaDoor
