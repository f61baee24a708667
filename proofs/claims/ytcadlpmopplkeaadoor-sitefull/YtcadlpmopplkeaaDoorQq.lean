/- SiteFull from region 14 on. -/
import Derived.Test.YtcadlpmopplkeaaDoorQp
import Derived.BigQuiet
import Derived.Deep.QuietTactic
import Derived.Deep.CutRange
namespace Go.Proofs.YtcadlpmopplkeaaDoor
open Go.RowKit Go.Maps
open Go.Shelf
set_option linter.unusedVariables false
set_option linter.unusedSimpArgs false
set_option maxHeartbeats 40000000 in
set_option maxRecDepth 100000 in
theorem full_t14 (A : Int) (bd : ByteArray) (w w2 : World) (lo g : Nat) (b : Option Addr) (c : Nat) (l : List PC) (K : Nat) (HT : Hid (Tab w)) (HBd : Hid (bd.size ≤ 60000)) (HL : Hid (l.length = 64)) (HF : Hid (Fl bd l)) (hK64 : K < 64) (HP2 : Hid (Pr w w2 (b, 64, c) l)) (HS2 : Hid (Sx w2 lo g 64 1 (Fk l) (l.map tgP))) (HLo : Hid (w.heap.size ≤ lo ∧ lo ≤ w2.heap.size)) (u22 u23 u24 u25 u26 u27 u28 u29 u30 u31 u32 u33 u34 u35 u36 u37 u38 u39 u40 u41 u42 u43 u44 u45 u46 u47 u48 u49 u50 u51 u52 u53 u54 u55 u56 u57 u58 u59 u60 u61 u62 u63 u64 u65 u66 u67 u68 u69 u70 u71 u72 u73 u74 u75 u76 u77 u78 u79 u80 u81 u82 u83 u84 u85 u86 u87 u88 u89 u90 u91 u92 u93 u94 u95 u96 u97 u98 u99 u100 u101 u102 u103 u104 u105 u106 u107 u108 u109 u110 u111 u112 u113 u114 u115 u116 u117 u118 u119 u120 u121 u122 u123 u124 u125 u126 u127 u128 u129 u130 u131 u132 u133 u134 u135 u136 u137 u138 u139 u140 u141 u142 u143 u144 u145 u146 u147 u148 u149 u150 u151 u152 u153 u154 u155 u156 u157 u158 u159 u160 u161 u162 u163 u164 u165 u166 u167 u168 u169 u170 u171 u172 u173 u174 u175 u176 u177 u178 u179 u180 u181 u182 u183 u184 u185 u186 u187 u188 u189 u190 u191 u192 u193 u194 u195 u196 u197 u198 u199 u200 u201 u202 u203 u204 u205 u206 u207 u208 u209 u210 u211 u212 u213 u214 u215 u216 u217 u218 u219 u220 u221 u222 u223 u224 u225 u226 u227 u228 u229 u230 u231 u232 u233 u234 u235 u236 u237 u238 u239 u240 u241 u242 u243 u244 u245 u246 u247 u248 u249 u250 u251 u252 u253 u254 u255 u256 u257 u258 u259 u260 u261 u262 u263 u264 u265 u266 u267 u268 u269 u270 u271 u272 u273 u274 u275 u276 u277 u278 u279 u280 u281 u282 u283 u284 u285 u286 u287 u288 u289 u290 u291 u292 u293 u294 u295 u296 u297 u298 u299 u300 u301 u302 u303 u304 u305 u306 u307 u308 u309 u310 u311 u312 u313 u314 u315 u316 u317 u318 u319 : Value) : Code.wp Tryd.prog (dropS 8 (bodyOf Tryd.f4)) (bodyPost Tryd.prog Tryd.f4 (fun e w' => e = .returned (.bool true) ∧ Below w.heap.size w w')) { tmps := #[.int .i64 A, .string bd, undef, undef, .bool false, .slice b 64 c, .int .i64 64, .pointer (some ⟨g, 0, none⟩), .int .i64 0, .int .i64 (K : Int), undef, undef, undef, undef, undef, undef, undef, undef, undef, undef, undef, undef, u22, u23, u24, u25, u26, u27, u28, u29, u30, u31, u32, u33, u34, u35, u36, u37, u38, u39, u40, u41, u42, u43, u44, u45, u46, u47, u48, u49, u50, u51, u52, u53, u54, u55, u56, u57, u58, u59, u60, u61, u62, u63, u64, u65, u66, u67, u68, u69, u70, u71, u72, u73, u74, u75, u76, u77, u78, u79, u80, u81, u82, u83, u84, u85, u86, u87, u88, u89, u90, u91, u92, u93, u94, u95, u96, u97, u98, u99, u100, u101, u102, u103, u104, u105, u106, u107, u108, u109, u110, u111, u112, u113, u114, u115, u116, u117, u118, u119, u120, u121, u122, u123, u124, u125, u126, u127, u128, u129, u130, u131, u132, u133, u134, u135, u136, u137, u138, u139, u140, u141, u142, u143, u144, u145, u146, u147, u148, u149, u150, u151, u152, u153, u154, u155, u156, u157, u158, u159, u160, u161, u162, u163, u164, u165, u166, u167, u168, u169, u170, u171, u172, u173, u174, u175, u176, u177, u178, u179, u180, u181, u182, u183, u184, u185, u186, u187, u188, u189, u190, u191, u192, u193, u194, u195, u196, u197, u198, u199, u200, u201, u202, u203, u204, u205, u206, u207, u208, u209, u210, u211, u212, u213, u214, u215, u216, u217, u218, u219, u220, u221, u222, u223, u224, u225, u226, u227, u228, u229, u230, u231, u232, u233, u234, u235, u236, u237, u238, u239, u240, u241, u242, u243, u244, u245, u246, u247, u248, u249, u250, u251, u252, u253, u254, u255, u256, u257, u258, u259, u260, u261, u262, u263, u264, u265, u266, u267, u268, u269, u270, u271, u272, u273, u274, u275, u276, u277, u278, u279, u280, u281, u282, u283, u284, u285, u286, u287, u288, u289, u290, u291, u292, u293, u294, u295, u296, u297, u298, u299, u300, u301, u302, u303, u304, u305, u306, u307, u308, u309, u310, u311, u312, u313, u314, u315, u316, u317, u318, u319], defers := [] } w2 := by
  conv in (dropS 8 (bodyOf Tryd.f4)) => whnf
  dsimp (config := { failIfUnchanged := false }) only
  obtain ⟨I, hI⟩ : ∃ I, itoaS (K : Int) = I := ⟨_, rfl⟩
  have HIT : Hid (∀ V, Below w.heap.size w V → Calls Tryd.prog 9 #[.int .i64 (K : Int)] V fun e w' => e = .returned (.string I) ∧ Below V.heap.size V w') := fun V hV => by rw [← hI]; exact itoa_any (K : Int) (by omega) (by omega) V (HT.out.below hV)
  have hI2 : I.size ≤ 2 := by rw [← hI]; exact (flP_one (by omega)).2.2.1
  have HI : Hid (itoaS (K : Int) = I) := hI
  obtain ⟨P, hP⟩ : ∃ P, (⟨#[47]⟩ : ByteArray) ++ I = P := ⟨_, rfl⟩
  have HP : Hid (flP K = P) := by rw [← hP, ← hI]; rfl
  have HPe : Hid ((⟨#[47]⟩ : ByteArray) ++ I = P) := hP
  have hs1 : ¬ (9223372036854775807 < 1 + I.size) := by omega
  have hs2 : ¬ (9223372036854775807 < bd.size + I.size) := by have := HBd.out; omega
  have H64 : Hid ((⟨#[47, 54, 52]⟩ : ByteArray) = flP 64) := by show _ = _; kernel_rfl
  have HPg : Hid (∀ V, Calls Tryd.prog 13 #[.string ⟨#[47, 54, 52]⟩, .string ⟨#[120]⟩] V fun e w' => ∃ y : SV, e = .returned (.agg (pgv ⟨aTest, flP 64, 200, e0S, y⟩)) ∧ Below V.heap.size V w' ∧ R ECh w' (sv y) [⟨e0S, ⟨#[120]⟩⟩] ∧ ∀ k, (sv y).ownBlock = some k → V.heap.size ≤ k) := fun V => by rw [H64.out]; exact page_any _ _ V
  have HPk : Hid (∀ V, Calls Tryd.prog 13 #[.string P, .string ⟨#[111, 116, 104, 101, 114]⟩] V fun e w' => ∃ y : SV, e = .returned (.agg (pgv ⟨aTest, P, 200, e0S, y⟩)) ∧ Below V.heap.size V w' ∧ R ECh w' (sv y) [⟨e0S, ⟨#[111, 116, 104, 101, 114]⟩⟩] ∧ ∀ k, (sv y).ownBlock = some k → V.heap.size ≤ k) := fun V => page_any _ _ V
  clear hI hI2
  obtain ⟨P64, hP64⟩ : ∃ P, flP 64 = P := ⟨_, rfl⟩
  have HP64 : Hid (flP 64 = P64) := hP64
  rw [hP64] at HPg
  clear hP64
  go_upto_region 14 with fail
  go_wp2_with fail
  go_at_call 13
  refine (HPg.out _).mono ?_
  rintro e w3 ⟨⟨zb, zl, zc⟩, rfl, b3, hR3, _⟩
  have HP3 : Hid (Pr w w3 (b, 64, c) l) := HP2.out.below b3
  have HPut : Hid (Calls Tryd.prog 14 #[.pointer (some ⟨g, 0, none⟩), .agg #[.string aTest, .string P64, .int .i64 200, .string e0S, .slice zb zl zc]] w3 fun e w' => e = .returned (.int .i64 6) ∧ (Below lo w3 w' ∧ Kt w3 w') ∧ Sx w' lo g 64 1 (Fk l) (l.map tgP)) := by
    have := put_full (HS2.out.below b3) HF.out HL.out (Nat.le_trans HLo.out.2 b3.size) (zb, zl, zc) hR3
    rw [HP64.out] at this
    exact this
  have HLo3 : Hid (w.heap.size ≤ lo ∧ lo ≤ w3.heap.size) := ⟨HLo.out.1, Nat.le_trans HLo.out.2 b3.size⟩
  unfold pgv
  simp only [sv]
  clear b3 hR3 HP2 HS2 HLo
  go_wp2_with fail
  go_at_call 14
  refine HPut.out.mono ?_
  rintro e w4 ⟨rfl, hB4, hS4⟩
  have HB4 : Hid (Below w.heap.size w w4) := HP3.out.bel.trans (hB4.1.mono HLo3.out.1)
  have HP4 : Hid (Pr w w4 (b, 64, c) l) := HP3.out.kt hB4.2 HB4.out
  have HS4 : Hid (Sx w4 lo g 64 1 (Fk l) (l.map tgP)) := hS4
  have HLo4 : Hid (w.heap.size ≤ lo ∧ lo ≤ w4.heap.size) := ⟨HLo3.out.1, Nat.le_trans HLo3.out.2 hB4.1.size⟩
  have HV4 : Hid (Calls Tryd.prog 15 #[.pointer (some ⟨g, 0, none⟩)] w4 fun e w' => e = .returned (.int .i64 1) ∧ w' = w4) := hS4.version
  clear hB4 hS4 HP3 HLo3 HPut
  go_wp2_with fail
  go_at_call 15
  refine HV4.out.mono ?_
  rintro e wq ⟨rfl, hw⟩
  rw [hw]
  clear hw wq HV4
  have HH : Hid (Calls Tryd.prog 16 #[.pointer (some ⟨g, 0, none⟩), .int .i64 1, .string ⟨#[97, 46, 116, 101, 115, 116]⟩, .string ⟨#[47, 54, 52]⟩] w4 fun e w' => e = .returned (.bool false) ∧ Below w4.heap.size w4 w') := by
    have := has_64 HS4.out HF.out HL.out
    rw [← H64.out] at this
    exact this
  go_wp2_with fail
  go_at_call 16
  refine HH.out.mono ?_
  rintro e w5 ⟨rfl, b5⟩
  have HP5 : Hid (Pr w w5 (b, 64, c) l) := HP4.out.below b5
  have HS5 : Hid (Sx w5 lo g 64 1 (Fk l) (l.map tgP)) := HS4.out.below b5
  have HLo5 : Hid (w.heap.size ≤ lo ∧ lo ≤ w5.heap.size) := ⟨HLo4.out.1, Nat.le_trans HLo4.out.2 b5.size⟩
  clear b5 HP4 HS4 HLo4 HB4 HH
  go_wp2_with fail
  go_at_call 9
  refine (HIT.out _ HP5.out.bel).mono ?_
  rintro e w6 ⟨rfl, b6⟩
  have HP6 : Hid (Pr w w6 (b, 64, c) l) := HP5.out.below b6
  have HS6 : Hid (Sx w6 lo g 64 1 (Fk l) (l.map tgP)) := HS5.out.below b6
  have HLo6 : Hid (w.heap.size ≤ lo ∧ lo ≤ w6.heap.size) := ⟨HLo5.out.1, Nat.le_trans HLo5.out.2 b6.size⟩
  clear b6 HP5 HS5 HLo5
  go_wp2_with fail
  go_at_call 13
  refine (HPk.out _).mono ?_
  rintro e w7 ⟨⟨zb, zl, zc⟩, rfl, b7, hR7, _⟩
  have HP7 : Hid (Pr w w7 (b, 64, c) l) := HP6.out.below b7
  have HLo7 : Hid (w.heap.size ≤ lo ∧ lo ≤ w7.heap.size) := ⟨HLo6.out.1, Nat.le_trans HLo6.out.2 b7.size⟩
  have HPut : Hid (Calls Tryd.prog 14 #[.pointer (some ⟨g, 0, none⟩), .agg #[.string aTest, .string P, .int .i64 200, .string e0S, .slice zb zl zc]] w7 fun e w' => e = .returned (.int .i64 0) ∧ (Below lo w7 w' ∧ Kt w7 w') ∧ Sx w' lo g 65 2 (flF l K) (l.map tgP)) := by
    have := put_again (HS6.out.below b7) HF.out HL.out HLo7.out.2 hK64 (zb, zl, zc) hR7
    rw [HP.out] at this
    exact this
  unfold pgv
  simp only [sv]
  clear b7 hR7 HP6 HS6 HLo6
  go_wp2_with fail
  go_at_call 14
  refine HPut.out.mono ?_
  rintro e w8 ⟨rfl, hB8, hS8⟩
  have HB8 : Hid (Below w.heap.size w w8) := HP7.out.bel.trans (hB8.1.mono HLo7.out.1)
  have HP8 : Hid (Pr w w8 (b, 64, c) l) := HP7.out.kt hB8.2 HB8.out
  have HS8 : Hid (Sx w8 lo g 65 2 (flF l K) (l.map tgP)) := hS8
  have HLo8 : Hid (w.heap.size ≤ lo ∧ lo ≤ w8.heap.size) := ⟨HLo7.out.1, Nat.le_trans HLo7.out.2 hB8.1.size⟩
  have HV8 : Hid (Calls Tryd.prog 15 #[.pointer (some ⟨g, 0, none⟩)] w8 fun e w' => e = .returned (.int .i64 2) ∧ w' = w8) := hS8.version
  clear hB8 hS8 HP7 HLo7 HPut HB8
  go_wp2_with fail
  go_at_call 15
  refine HV8.out.mono ?_
  rintro e wq ⟨rfl, hw⟩
  rw [hw]
  clear hw wq HV8

  have HF8 : Hid (Fs w w8 lo g (b, 64, c) l K) := ⟨HP8.out, HS8.out, HLo8.out.1, HLo8.out.2⟩
  go_upto_if 83 with fail
  go_cut [4] from 22 (fun v wx => v = .bool false ∧ w8 = wx)
  case first =>
    go_wp2_with fail
    go_meet
    case rel => exact ⟨rfl, rfl⟩
  case rest =>
    obtain ⟨rfl, hcw⟩ := hcut
    subst hcw
    exact (‹∀ (a : Act) (w : World), Code.wp Tryd.prog _ _ a w → _›) _ _ (full_t16 A bd w w8 lo g b c l K HT HBd HL HF hK64 HF8 _ _ _ _ _ _ _ _ _ _ _ _ _ _ _ _ _ _ _ _ _ _ _ _ _ _ _ _ _ _ _ _ _ _ _ _ _ _ _ _ _ _ _ _ _ _ _ _ _ _ _ _ _ _ _ _ _ _ _ _ _ _ _ _ _ _ _ _ _ _ _ _ _ _ _ _ _ _ _ _ _ _ _ _ _ _ _ _ _ _ _ _ _ _ _ _ _ _ _ _ _ _ _ _ _ _ _ _ _ _ _ _ _ _ _ _ _ _ _ _ _ _ _ _ _ _ _ _ _ _ _ _ _ _ _ _ _ _ _ _ _ _ _ _ _ _ _ _ _ _ _ _ _ _ _ _ _ _ _ _ _ _ _ _ _ _ _ _ _ _ _ _ _ _ _ _ _ _ _ _ _ _ _ _ _ _ _ _ _ _ _ _ _ _ _ _ _ _ _ _ _ _ _ _ _ _ _ _ _ _ _ _ _ _ _ _ _ _ _ _ _ _ _ _ _ _ _ _ _ _ _ _ _ _ _ _ _ _ _ _ _ _ _ _ _ _ _ _ _ _ _ _ _ _ _ _ _ _ _ _ _ _ _ _ _ _ _ _ _ _ _ _ _ _ _ _ _ _ _ _ _ _ _ _ _ _ _ _ _ _ _ _ _ _ _ _ _ _)
end Go.Proofs.YtcadlpmopplkeaaDoor
