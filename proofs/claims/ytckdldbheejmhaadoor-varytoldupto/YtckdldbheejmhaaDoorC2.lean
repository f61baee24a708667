/- first. -/
import Derived.Test.YtckdldbheejmhaaDoorB6
import Derived.Test.YtckdldbheejmhaaDoorA3
namespace Go.Proofs.YtckdldbheejmhaaDoor
open Go.RowKit
set_option linter.unusedVariables false
set_option linter.unusedSimpArgs false

def acceptS : ByteArray := ⟨#[97, 99, 99, 101, 112, 116]⟩
def fv1 : Fd := ⟨varyS, ⟨#[65, 99, 99, 101, 112, 116, 44, 32, 42]⟩, false⟩
def fp1 : Fd := ⟨acceptS, ⟨#[49]⟩, false⟩
def fq1 : Fd := ⟨acceptS, ⟨#[50]⟩, false⟩
def getS : ByteArray := ⟨#[71, 69, 84]⟩
def xS : ByteArray := ⟨#[47, 120]⟩
theorem first_facts : vsL [fv1] varyS = [fv1.v] ∧ nmL (allP [fv1.v]) = [acceptS] ∧ decide (0 < cnt (allP [fv1.v]) starS) = true ∧ (allP [fv1.v]).length = 2 := by decide +kernel
theorem first_match : mtL [fp1] [fq1] [] = true ∧ mtL [fp1] [fq1] [acceptS] = false ∧ mtL [fp1] [fp1] [acceptS] = true := by decide +kernel
theorem eqB_refl (a : List ByteArray) : eqB a a = true := eqB_true rfl
def rqP (y : SV) : Rq := ⟨getS, noS, noS, xS, y, noS⟩
theorem In_nil {α : Type} {E : El α} (w : World) : In E w (sv (none, 0, 0)) [] := .inl ⟨rfl, rfl⟩
set_option maxHeartbeats 8000000 in
set_option maxRecDepth 100000 in
theorem first_any (w : World) : Calls Tryd.prog 8 #[] w fun e w' => e = .returned (.bool true) ∧ Below w.heap.size w w' := by
  have b0 := bel1 w (.cells #[.string ⟨#[118, 97, 114, 121]⟩, .string ⟨#[65, 99, 99, 101, 112, 116, 44, 32, 42]⟩, .bool false] 30)
  have r0 : R EFd (w.alloc (.cells #[.string ⟨#[118, 97, 114, 121]⟩, .string ⟨#[65, 99, 99, 101, 112, 116, 44, 32, 42]⟩, .bool false] 30)) (.slice (some ⟨w.heap.size, 0, none⟩) 1 1) [fv1] := R.one okFd fv1 (by rw [heap_al, if_pos rfl]; rfl) rfl
  have h11 : Hid (Calls Tryd.prog 11 #[.agg #[.int .i64 0, .slice (some ⟨w.heap.size, 0, none⟩) 1 1, .string ⟨#[]⟩]] (w.alloc (.cells #[.string ⟨#[118, 97, 114, 121]⟩, .string ⟨#[65, 99, 99, 101, 112, 116, 44, 32, 42]⟩, .bool false] 30)) fun e w' => ∃ zb zl zc, e = .returned (.tuple #[.slice zb zl zc, .bool true]) ∧ Hid (Below w.heap.size w w' ∧ R ES w' (.slice zb zl zc) [acceptS])) := by
    refine (names_any 0 (some ⟨w.heap.size, 0, none⟩, 1, 1) ⟨#[]⟩ [fv1] _ r0.isIn (by decide) ?_ ?_).mono ?_
    · rw [first_facts.1]; decide
    · rw [first_facts.1, first_facts.2.2.2]; decide
    · rintro e w' ⟨⟨zb, zl, zc⟩, rfl, hb, hr, _⟩
      rw [first_facts.1] at hr ⊢
      rw [first_facts.2.2.1]
      rw [first_facts.2.1] at hr
      exact ⟨zb, zl, zc, rfl, b0.trans (hb.mono b0.size), hr⟩
  clear b0 r0
  go_enter Tryd.func8, Tryd.ntmps8
  go_wp2_with fail
  go_at_call 11
  refine h11.out.mono ?_
  rintro e w1 ⟨zb, zl, zc, rfl, hz⟩
  clear h11
  have s1 : (w1.alloc (.cells #[.string ⟨#[97, 99, 99, 101, 112, 116]⟩, .string ⟨#[49]⟩, .bool false] 30)).heap.size = w1.heap.size + 1 := by simp
  obtain ⟨w5, hw5⟩ : ∃ x, (((((w1.alloc (.cells #[.string ⟨#[97, 99, 99, 101, 112, 116]⟩, .string ⟨#[49]⟩, .bool false] 30)).alloc (.cells #[.string ⟨#[71, 69, 84]⟩, .string ⟨#[]⟩, .string ⟨#[]⟩, .string ⟨#[47, 120]⟩, .slice (some ⟨w1.heap.size, 0, none⟩) 1 1, .string ⟨#[]⟩] 24)).alloc (.cells #[.string ⟨#[97, 99, 99, 101, 112, 116]⟩, .string ⟨#[50]⟩, .bool false] 30)).alloc (.cells #[.string ⟨#[71, 69, 84]⟩, .string ⟨#[]⟩, .string ⟨#[]⟩, .string ⟨#[47, 120]⟩, .slice (some ⟨w1.heap.size + 1 + 1, 0, none⟩) 1 1, .string ⟨#[]⟩] 24)).alloc (.cells #[.string ⟨#[97, 99, 99, 101, 112, 116]⟩] 9)) = x := ⟨_, rfl⟩
  have b5 : Below w1.heap.size w1 w5 := by
    rw [← hw5]
    exact (bel3 w1 _ _ _).trans ((bel2 _ _ _).mono (by simp <;> omega))
  have HB : Hid (RqB w5 (w1.heap.size + 1) ⟨⟨#[71, 69, 84]⟩, ⟨#[]⟩, ⟨#[]⟩, ⟨#[47, 120]⟩, (some ⟨w1.heap.size, 0, none⟩, 1, 1), ⟨#[]⟩⟩ ∧ RqB w5 (w1.heap.size + 1 + 1 + 1) ⟨⟨#[71, 69, 84]⟩, ⟨#[]⟩, ⟨#[]⟩, ⟨#[47, 120]⟩, (some ⟨w1.heap.size + 1 + 1, 0, none⟩, 1, 1), ⟨#[]⟩⟩ ∧ R EFd w5 (.slice (some ⟨w1.heap.size, 0, none⟩) 1 1) [fp1] ∧ R EFd w5 (.slice (some ⟨w1.heap.size + 1 + 1, 0, none⟩) 1 1) [fq1] ∧ R ES w5 (.slice zb zl zc) [acceptS]) := by
    rw [← hw5]
    refine ⟨?_, ?_, R.one okFd fp1 ?_ rfl, R.one okFd fq1 ?_ rfl, ?_⟩
    · unfold RqB; rw [heap_al, if_neg (by simp <;> omega), heap_al, if_neg (by simp <;> omega), heap_al, if_neg (by simp), heap_al, if_pos (by simp)]; rfl
    · unfold RqB; rw [heap_al, if_neg (by simp), heap_al, if_pos (by simp)]; rfl
    · rw [heap_al, if_neg (by simp <;> omega), heap_al, if_neg (by simp <;> omega), heap_al, if_neg (by simp <;> omega), heap_al, if_neg (by simp), heap_al, if_pos (by simp)]; rfl
    · rw [heap_al, if_neg (by simp <;> omega), heap_al, if_neg (by simp), heap_al, if_pos (by simp)]; rfl
    · rw [hw5]; exact R.below hz.out.2 b5
  have HN : Hid (In ES w5 (.slice (some ⟨w1.heap.size + 1 + 1 + 1 + 1, 0, none⟩) 1 1) [acceptS]) := by
    rw [← hw5]
    exact in_one _ _ _ #[.string ⟨#[97, 99, 99, 101, 112, 116]⟩] 9 (0, 0) (by rw [heap_al, if_pos (by simp)]) rfl
  have BW : Hid (Below w.heap.size w w5) := hz.out.1.trans (b5.mono hz.out.1.size)
  have D0 : Hid (Below w5.heap.size w5 w5) := Below.refl _ _
  have HW : Hid ((((((w1.alloc (.cells #[.string ⟨#[97, 99, 99, 101, 112, 116]⟩, .string ⟨#[49]⟩, .bool false] 30)).alloc (.cells #[.string ⟨#[71, 69, 84]⟩, .string ⟨#[]⟩, .string ⟨#[]⟩, .string ⟨#[47, 120]⟩, .slice (some ⟨w1.heap.size, 0, none⟩) 1 1, .string ⟨#[]⟩] 24)).alloc (.cells #[.string ⟨#[97, 99, 99, 101, 112, 116]⟩, .string ⟨#[50]⟩, .bool false] 30)).alloc (.cells #[.string ⟨#[71, 69, 84]⟩, .string ⟨#[]⟩, .string ⟨#[]⟩, .string ⟨#[47, 120]⟩, .slice (some ⟨w1.heap.size + 1 + 1, 0, none⟩) 1 1, .string ⟨#[]⟩] 24)).alloc (.cells #[.string ⟨#[97, 99, 99, 101, 112, 116]⟩] 9)) = w5) := hw5
  clear hz b5 hw5 s1
  go_wp2_with fail
  go_at_call 13
  rw [HW.out]
  refine (lsame_any (zb, zl, zc) (some ⟨w1.heap.size + 1 + 1 + 1 + 1, 0, none⟩, 1, 1) [acceptS] [acceptS] w5 HB.out.2.2.2.2.isIn HN.out).mono ?_
  rintro e w6 ⟨rfl, bx⟩
  rw [eqB_refl]
  have D1 : Hid (Below w5.heap.size w5 w6) := bx
  clear bx HN HW D0
  obtain ⟨z0, z1, z2, z3, z4, z5, z6⟩ := (HB.out.1.below D1.out).cells
  obtain ⟨y0, y1, y2, y3, y4, y5, y6⟩ := (HB.out.2.1.below D1.out).cells
  go_wp2_with fail
  go_at_call 9
  refine (match_any ⟨⟨#[71, 69, 84]⟩, ⟨#[]⟩, ⟨#[]⟩, ⟨#[47, 120]⟩, (some ⟨w1.heap.size, 0, none⟩, 1, 1), ⟨#[]⟩⟩ ⟨⟨#[71, 69, 84]⟩, ⟨#[]⟩, ⟨#[]⟩, ⟨#[47, 120]⟩, (some ⟨w1.heap.size + 1 + 1, 0, none⟩, 1, 1), ⟨#[]⟩⟩ (none, 0, 0) [fp1] [fq1] [] _ (HB.out.2.2.1.isIn.below D1.out) (HB.out.2.2.2.1.isIn.below D1.out) (In_nil _) (by decide) (by decide)).mono ?_
  rintro e w7 ⟨rfl, bx⟩
  rw [show mtB ⟨⟨#[71, 69, 84]⟩, ⟨#[]⟩, ⟨#[]⟩, ⟨#[47, 120]⟩, (some ⟨w1.heap.size, 0, none⟩, 1, 1), ⟨#[]⟩⟩ ⟨⟨#[71, 69, 84]⟩, ⟨#[]⟩, ⟨#[]⟩, ⟨#[47, 120]⟩, (some ⟨w1.heap.size + 1 + 1, 0, none⟩, 1, 1), ⟨#[]⟩⟩ [fp1] [fq1] [] = true from by unfold mtB; rw [show hdL ⟨⟨#[71, 69, 84]⟩, ⟨#[]⟩, ⟨#[]⟩, ⟨#[47, 120]⟩, (some ⟨w1.heap.size, 0, none⟩, 1, 1), ⟨#[]⟩⟩ = hdL ⟨⟨#[71, 69, 84]⟩, ⟨#[]⟩, ⟨#[]⟩, ⟨#[47, 120]⟩, (some ⟨w1.heap.size + 1 + 1, 0, none⟩, 1, 1), ⟨#[]⟩⟩ from rfl, eqB_refl]; simp [first_match.1]]
  have D2 : Hid (Below w5.heap.size w5 w7) := D1.out.trans (bx.mono D1.out.size)
  clear bx z0 z1 z2 z3 z4 z5 z6 y0 y1 y2 y3 y4 y5 y6
  obtain ⟨z0, z1, z2, z3, z4, z5, z6⟩ := (HB.out.1.below D2.out).cells
  obtain ⟨y0, y1, y2, y3, y4, y5, y6⟩ := (HB.out.2.1.below D2.out).cells
  go_wp2_with fail
  go_at_call 9
  refine (match_any ⟨⟨#[71, 69, 84]⟩, ⟨#[]⟩, ⟨#[]⟩, ⟨#[47, 120]⟩, (some ⟨w1.heap.size, 0, none⟩, 1, 1), ⟨#[]⟩⟩ ⟨⟨#[71, 69, 84]⟩, ⟨#[]⟩, ⟨#[]⟩, ⟨#[47, 120]⟩, (some ⟨w1.heap.size + 1 + 1, 0, none⟩, 1, 1), ⟨#[]⟩⟩ (zb, zl, zc) [fp1] [fq1] [acceptS] _ (HB.out.2.2.1.isIn.below D2.out) (HB.out.2.2.2.1.isIn.below D2.out) (HB.out.2.2.2.2.isIn.below D2.out) (by decide) (by decide)).mono ?_
  rintro e w8 ⟨rfl, bx⟩
  rw [show mtB ⟨⟨#[71, 69, 84]⟩, ⟨#[]⟩, ⟨#[]⟩, ⟨#[47, 120]⟩, (some ⟨w1.heap.size, 0, none⟩, 1, 1), ⟨#[]⟩⟩ ⟨⟨#[71, 69, 84]⟩, ⟨#[]⟩, ⟨#[]⟩, ⟨#[47, 120]⟩, (some ⟨w1.heap.size + 1 + 1, 0, none⟩, 1, 1), ⟨#[]⟩⟩ [fp1] [fq1] [acceptS] = false from by unfold mtB; rw [show hdL ⟨⟨#[71, 69, 84]⟩, ⟨#[]⟩, ⟨#[]⟩, ⟨#[47, 120]⟩, (some ⟨w1.heap.size, 0, none⟩, 1, 1), ⟨#[]⟩⟩ = hdL ⟨⟨#[71, 69, 84]⟩, ⟨#[]⟩, ⟨#[]⟩, ⟨#[47, 120]⟩, (some ⟨w1.heap.size + 1 + 1, 0, none⟩, 1, 1), ⟨#[]⟩⟩ from rfl, eqB_refl]; simp [first_match.2.1]]
  have D3 : Hid (Below w5.heap.size w5 w8) := D2.out.trans (bx.mono D2.out.size)
  clear bx z0 z1 z2 z3 z4 z5 z6 y0 y1 y2 y3 y4 y5 y6
  obtain ⟨z0, z1, z2, z3, z4, z5, z6⟩ := (HB.out.1.below D3.out).cells
  obtain ⟨y0, y1, y2, y3, y4, y5, y6⟩ := (HB.out.2.1.below D3.out).cells
  go_wp2_with fail
  go_at_call 9
  refine (match_any ⟨⟨#[71, 69, 84]⟩, ⟨#[]⟩, ⟨#[]⟩, ⟨#[47, 120]⟩, (some ⟨w1.heap.size, 0, none⟩, 1, 1), ⟨#[]⟩⟩ ⟨⟨#[71, 69, 84]⟩, ⟨#[]⟩, ⟨#[]⟩, ⟨#[47, 120]⟩, (some ⟨w1.heap.size, 0, none⟩, 1, 1), ⟨#[]⟩⟩ (zb, zl, zc) [fp1] [fp1] [acceptS] _ (HB.out.2.2.1.isIn.below D3.out) (HB.out.2.2.1.isIn.below D3.out) (HB.out.2.2.2.2.isIn.below D3.out) (by decide) (by decide)).mono ?_
  rintro e w9 ⟨rfl, bx⟩
  rw [show mtB ⟨⟨#[71, 69, 84]⟩, ⟨#[]⟩, ⟨#[]⟩, ⟨#[47, 120]⟩, (some ⟨w1.heap.size, 0, none⟩, 1, 1), ⟨#[]⟩⟩ ⟨⟨#[71, 69, 84]⟩, ⟨#[]⟩, ⟨#[]⟩, ⟨#[47, 120]⟩, (some ⟨w1.heap.size, 0, none⟩, 1, 1), ⟨#[]⟩⟩ [fp1] [fp1] [acceptS] = true from by unfold mtB; rw [show hdL ⟨⟨#[71, 69, 84]⟩, ⟨#[]⟩, ⟨#[]⟩, ⟨#[47, 120]⟩, (some ⟨w1.heap.size, 0, none⟩, 1, 1), ⟨#[]⟩⟩ = hdL ⟨⟨#[71, 69, 84]⟩, ⟨#[]⟩, ⟨#[]⟩, ⟨#[47, 120]⟩, (some ⟨w1.heap.size, 0, none⟩, 1, 1), ⟨#[]⟩⟩ from rfl, eqB_refl]; simp [first_match.2.2]]
  have D4 : Hid (Below w5.heap.size w5 w9) := D3.out.trans (bx.mono D3.out.size)
  clear bx z0 z1 z2 z3 z4 z5 z6 y0 y1 y2 y3 y4 y5 y6
  go_wp2_with fail
  go_ret
  exact ⟨by first | rfl | simp, BW.out.trans (D4.out.mono BW.out.size)⟩
end Go.Proofs.YtckdldbheejmhaaDoor
