/- SiteFull. -/
import Derived.Test.YtcadlpmopplkeaaDoorQq
import Derived.BigQuiet
import Derived.Deep.QuietTactic
import Derived.Deep.CutRange
namespace Go.Proofs.YtcadlpmopplkeaaDoor
open Go.RowKit Go.Maps
open Go.Shelf
set_option linter.unusedVariables false
set_option linter.unusedSimpArgs false
set_option maxHeartbeats 40000000 in
set_option maxRecDepth 100000 in
theorem siteFull_any (A : Int) (body : ByteArray) (w : World) (ht : Tab w) (hA0 : -9223372036854775808 ≤ A) (hA1 : A ≤ 9223372036854775807) (hbz : body.size ≤ 140737488351232) : Calls Tryd.prog 4 #[.int .i64 A, .string body] w fun e w' => e = .returned (.bool true) ∧ Below w.heap.size w w' := by
  have HT : Hid (Tab w) := ht
  have CH : Hid (Calls Tryd.prog 8 #[] w fun e w' => e = .returned (.bool true) ∧ Below w.heap.size w w') := head_any w ht
  clear ht
  go_enter Tryd.func4, Tryd.ntmps4
  go_wp2_with fail
  go_at_call 8
  refine CH.out.mono ?_
  rintro e w1 ⟨rfl, hb1⟩
  have HB1 : Hid (Below w.heap.size w w1) := hb1
  clear hb1 CH
  go_upto_if 26 with fail
  go_cut [1] from 22 (fun v wx => ∃ bd : ByteArray, v = .string bd ∧ bd.size ≤ 60000 ∧ w1 = wx)
  case first =>
    by_cases hbig : 60000 < body.size
    · have h1 : (60000 : Int) < (body.size : Int) := by omega
      have h2 : (60000 : Int) ≤ (body.size : Int) := by omega
      go_wp2_with fail
      go_meet
      case rel => exact ⟨body.extract 0 60000, rfl, by rw [ByteArray.size_extract]; omega, rfl⟩
    · have h1 : ¬ (60000 : Int) < (body.size : Int) := by omega
      go_wp2_with fail
      go_meet
      case rel => exact ⟨body, rfl, by omega, rfl⟩
  case rest =>
    obtain ⟨bd, rfl, hbd, rfl⟩ := hcut
    have HBd : Hid (bd.size ≤ 60000) := hbd
    clear hbd
    go_wp2_with fail
    go_loopw [5, 6] (fun lv iv wr => ∃ (i k c : Nat) (b : Option Addr) (l : List PC), lv = .slice b k c ∧ iv = .int .i64 (i : Int) ∧ i ≤ 64 ∧ Hid (l.length = i ∧ k = i ∧ Fl bd l ∧ Pr w wr (b, k, c) l)) (fun _ iv _ => 64 - (intOf iv).toNat)
    case atStart => exact ⟨0, 0, 0, none, [], rfl, rfl, by omega, rfl, rfl, Fl.nil bd, (Pr.start w).below HB1.out⟩
    case round =>
      obtain ⟨i, k, c, b, l, rfl, rfl, hi, hJ⟩ := hrel
      by_cases hlt : i < 64
      · have a1 : (i : Int) < 64 := by omega
        obtain ⟨I, hI⟩ : ∃ I, itoaS (i : Int) = I := ⟨_, rfl⟩
        have HIT : Hid (∀ V, Below w.heap.size w V → Calls Tryd.prog 9 #[.int .i64 (i : Int)] V fun e w' => e = .returned (.string I) ∧ Below V.heap.size V w') := fun V hV => by rw [← hI]; exact itoa_any (i : Int) (by omega) (by omega) V (HT.out.below hV)
        have hI2 : I.size ≤ 2 := by rw [← hI]; exact (flP_one (by omega)).2.2.1
        have HX : Hid ((⟨#[47]⟩ : ByteArray) ++ I = flP i ∧ bd ++ I = bd ++ itoaS (i : Int)) := ⟨by rw [← hI]; rfl, by rw [hI]⟩
        have hs1 : ¬ (9223372036854775807 < 1 + I.size) := by omega
        have hs2 : ¬ (9223372036854775807 < bd.size + I.size) := by have := HBd.out; omega
        have HPg : Hid (∀ V, Calls Tryd.prog 13 #[.string ((⟨#[47]⟩ : ByteArray) ++ I), .string (bd ++ I)] V fun e w' => ∃ y : SV, e = .returned (.agg (pgv ⟨aTest, (⟨#[47]⟩ : ByteArray) ++ I, 200, e0S, y⟩)) ∧ Below V.heap.size V w' ∧ R ECh w' (sv y) [⟨e0S, bd ++ I⟩] ∧ ∀ k, (sv y).ownBlock = some k → V.heap.size ≤ k) := fun V => page_any _ _ V
        clear hI hI2
        go_wp2_with fail
        go_at_call 9
        refine (HIT.out _ hJ.out.2.2.2.bel).mono ?_
        rintro e V1 ⟨rfl, b1⟩
        have HP1 : Hid (Pr w V1 (b, k, c) l) := hJ.out.2.2.2.below b1
        clear b1
        go_wp2_with fail
        go_at_call 9
        refine (HIT.out _ HP1.out.bel).mono ?_
        rintro e V2 ⟨rfl, b2⟩
        have HP2 : Hid (Pr w V2 (b, k, c) l) := HP1.out.below b2
        clear b2
        go_wp2_with fail
        go_at_call 13
        refine (HPg.out _).mono ?_
        rintro e V3 ⟨⟨zb, zl, zc⟩, rfl, b3, hR, _⟩
        have HP3 : Hid (Pr w V3 (b, k, c) l) := HP2.out.below b3
        obtain ⟨P, hP⟩ : ∃ P, (⟨#[47]⟩ : ByteArray) ++ I = P := ⟨_, rfl⟩
        have HPe : Hid (P = flP i) := by rw [← hP]; exact HX.out.1
        have HRz : Hid (R ECh V3 (sv (zb, zl, zc)) [⟨e0S, bd ++ I⟩]) := hR
        obtain ⟨V4, hV4⟩ : ∃ V, V3.alloc (.cells #[.string aTest, .string P, .int .i64 200, .string e0S, .slice zb zl zc] 26) = V := ⟨_, rfl⟩
        obtain ⟨h1, h2⟩ := one_page ⟨aTest, P, 200, e0S, (zb, zl, zc)⟩ [⟨e0S, bd ++ I⟩] hR
        have hV4' : V3.alloc (.cells (pgv ⟨aTest, P, 200, e0S, (zb, zl, zc)⟩) 26) = V4 := hV4
        rw [hV4'] at h1 h2
        have HB4 : Hid (Below V3.heap.size V3 V4) := by rw [← hV4]; exact bel1 _ _
        obtain ⟨b5, c5, w5, e5, hP5, _, _⟩ := (HP3.out.below HB4.out).app _ [(⟨aTest, P, 200, e0S, (zb, zl, zc)⟩, [⟨e0S, bd ++ I⟩])] h1 (fun x hx => by rw [List.mem_singleton.1 hx]; exact HRz.out.below HB4.out) (by have := hJ.out.1; simp; omega)
        have HN : Hid ((l ++ [flX bd i (zb, zl, zc)]).length = i + 1 ∧ k + 1 = i + 1 ∧ Fl bd (l ++ [flX bd i (zb, zl, zc)]) ∧ Pr w w5 (b5, k + 1, c5) (l ++ [flX bd i (zb, zl, zc)])) := by
          refine ⟨by rw [List.length_append, hJ.out.1]; rfl, by rw [hJ.out.2.1], ?_, ?_⟩
          · have := hJ.out.2.2.1.snoc (zb, zl, zc)
            rw [hJ.out.1] at this
            exact this
          · have h5 := hP5
            rw [HPe.out, HX.out.2, List.length_singleton, hJ.out.1, ← hJ.out.2.1] at h5
            rw [hJ.out.2.1] at h5 ⊢
            exact h5
        have el : l.length + [((⟨aTest, P, 200, e0S, (zb, zl, zc)⟩ : Pg), [(⟨e0S, bd ++ I⟩ : Ch)])].length = k + 1 := by rw [hJ.out.1, hJ.out.2.1]; rfl
        rw [el] at e5
        simp only [sv] at e5
        replace e5 : Hid _ := e5
        rw [hP]
        unfold pgv
        simp only [sv]
        clear h1 h2 hP5 hV4' hR b3 hP hJ el HP1 HP2 HP3 HRz HB4
        go_wp2_with (at_builtin; refine Lib.wpList_append_run _ rfl _ _ _ _ rfl _ _ rfl rfl _ _ e5.out ?_)
        go_roundw
        case rel => exact ⟨i + 1, k + 1, c5, b5, l ++ [flX bd i (zb, zl, zc)], by first | rfl | simp, by simp, by omega, HN.out⟩
        case measure => first | (simp [intOf]; done) | (simp [intOf]; omega)
      · obtain rfl : i = 64 := by omega
        obtain rfl : k = 64 := hJ.out.2.1
        have a1 : ¬ ((64 : Nat) : Int) < 64 := by omega
        have HL : Hid (l.length = 64) := hJ.out.1
        have HF : Hid (Fl bd l) := hJ.out.2.2.1
        have HP : Hid (Pr w wr (b, 64, c) l) := hJ.out.2.2.2
        have HNw : Hid (Calls Tryd.prog 10 #[.slice b 64 c] wr fun e w' => NwP l wr e w') := HP.out.new_any
        clear hJ hlt hi
        go_wp2_with fail
        go_at_call 10
        refine HNw.out.mono ?_
        rintro e w2 ⟨b2, h⟩
        rcases h with ⟨h, _⟩ | ⟨_, g, hg, rfl, hS⟩
        · exact absurd (HF.out.nw HBd.out (by rw [HL.out]; omega)) h
        · have HP2 : Hid (Pr w w2 (b, 64, c) l) := HP.out.below b2
          have HS2 : Hid (Sx w2 wr.heap.size g 64 1 (Fk l) (l.map tgP)) := by have := hS; rw [HL.out] at this; exact this
          have HLo : Hid (w.heap.size ≤ wr.heap.size ∧ wr.heap.size ≤ w2.heap.size) := ⟨HP.out.bel.size, b2.size⟩
          generalize wr.heap.size = lo at HS2 HLo
          clear hS b2 hg HNw HP
          go_upto_region 13 with fail
          obtain ⟨K, hK⟩ : ∃ K : Nat, bits .and .i64 A 63 = (K : Int) := ⟨(A % 64).toNat, by rw [and63]; omega⟩
          have hK64 : K < 64 := by rw [and63] at hK; omega
          go_cut [9] from 22 (fun v wx => v = .int .i64 (K : Int) ∧ w2 = wx)
          case first =>
            go_wp2_with fail
            go_meet
            case rel => first | exact ⟨rfl, rfl⟩ | exact ⟨by rw [hK], rfl⟩
          case rest =>
            obtain ⟨rfl, hcw⟩ := hcut
            subst hcw
            exact (‹∀ (a : Act) (w : World), Code.wp Tryd.prog _ _ a w → _›) _ _ (full_t14 A bd w w2 lo g b c l K HT HBd HL HF hK64 HP2 HS2 HLo _ _ _ _ _ _ _ _ _ _ _ _ _ _ _ _ _ _ _ _ _ _ _ _ _ _ _ _ _ _ _ _ _ _ _ _ _ _ _ _ _ _ _ _ _ _ _ _ _ _ _ _ _ _ _ _ _ _ _ _ _ _ _ _ _ _ _ _ _ _ _ _ _ _ _ _ _ _ _ _ _ _ _ _ _ _ _ _ _ _ _ _ _ _ _ _ _ _ _ _ _ _ _ _ _ _ _ _ _ _ _ _ _ _ _ _ _ _ _ _ _ _ _ _ _ _ _ _ _ _ _ _ _ _ _ _ _ _ _ _ _ _ _ _ _ _ _ _ _ _ _ _ _ _ _ _ _ _ _ _ _ _ _ _ _ _ _ _ _ _ _ _ _ _ _ _ _ _ _ _ _ _ _ _ _ _ _ _ _ _ _ _ _ _ _ _ _ _ _ _ _ _ _ _ _ _ _ _ _ _ _ _ _ _ _ _ _ _ _ _ _ _ _ _ _ _ _ _ _ _ _ _ _ _ _ _ _ _ _ _ _ _ _ _ _ _ _ _ _ _ _ _ _ _ _ _ _ _ _ _ _ _ _ _ _ _ _ _ _ _ _ _ _ _ _ _ _ _ _ _ _ _ _ _ _ _ _ _ _ _ _ _ _ _ _ _ _ _)
end Go.Proofs.YtcadlpmopplkeaaDoor
