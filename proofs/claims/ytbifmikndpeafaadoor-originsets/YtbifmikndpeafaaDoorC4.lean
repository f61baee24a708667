/- first. -/
import Derived.Test.YtbifmikndpeafaaDoorC3
namespace Go.Proofs.YtbifmikndpeafaaDoor
open Go.RowKit Go.Maps
set_option linter.unusedVariables false
set_option linter.unusedSimpArgs false
def exS : ByteArray := ⟨#[101, 120, 97, 109, 112, 108, 101, 46, 99, 111, 109]⟩
def o1 : Og := ⟨httpS, exS, 8080⟩
def o2 : Og := ⟨httpsS, exS, 443⟩
theorem p1_val : paV ⟨#[72, 84, 84, 80, 58, 47, 47, 69, 120, 97, 109, 112, 108, 101, 46, 67, 79, 77, 58, 56, 48, 56, 48]⟩ = .tuple #[.agg #[.string httpS, .string exS, .int .i64 8080], .int .i64 0] := by kernel_rfl
theorem p2_val : paV ⟨#[104, 116, 116, 112, 115, 58, 47, 47, 117, 64, 97]⟩ = .tuple #[.agg #[.string ⟨#[]⟩, .string ⟨#[]⟩, .int .i64 0], .int .i64 150] := by kernel_rfl
theorem p3_val : prV o2 = .tuple #[.string ⟨#[104, 116, 116, 112, 115, 58, 47, 47, 101, 120, 97, 109, 112, 108, 101, 46, 99, 111, 109]⟩, .int .i64 0] := by kernel_rfl
theorem o2_rt : rtB o2 = true := by kernel_rfl
theorem h1_val : hsB [o2] ⟨#[104, 116, 116, 112, 115]⟩ ⟨#[69, 88, 65, 77, 80, 76, 69, 46, 99, 111, 109, 58, 52, 52, 51]⟩ = true := by kernel_rfl
theorem h2_val : hsB [o2] ⟨#[104, 116, 116, 112]⟩ ⟨#[101, 120, 97, 109, 112, 108, 101, 46, 99, 111, 109]⟩ = false := by kernel_rfl
theorem of2 : ofE [o2] = 0 := ofE_ok ⟨fun o ho => by rw [List.mem_singleton.1 ho]; exact o2_rt, by simp, by simp⟩
set_option maxHeartbeats 4000000 in
set_option maxRecDepth 100000 in
theorem first_any (w : World) (he : Env w) : Calls Tryd.prog 9 #[] w fun e w' => e = .returned (.bool true) ∧ Below w.heap.size w w' := by
  have H1 : Hid (∀ W, Env W → Calls Tryd.prog 12 #[.string ⟨#[72, 84, 84, 80, 58, 47, 47, 69, 120, 97, 109, 112, 108, 101, 46, 67, 79, 77, 58, 56, 48, 56, 48]⟩] W fun e w' => e = .returned (.tuple #[.agg #[.string httpS, .string exS, .int .i64 8080], .int .i64 0]) ∧ Below W.heap.size W w') := fun W hW => by rw [← p1_val]; exact parse_any _ W hW (by decide)
  have H2 : Hid (∀ W, Env W → Calls Tryd.prog 12 #[.string ⟨#[104, 116, 116, 112, 115, 58, 47, 47, 117, 64, 97]⟩] W fun e w' => e = .returned (.tuple #[.agg #[.string ⟨#[]⟩, .string ⟨#[]⟩, .int .i64 0], .int .i64 150]) ∧ Below W.heap.size W w') := fun W hW => by rw [← p2_val]; exact parse_any _ W hW (by decide)
  have H3 : Hid (∀ W, Env W → Calls Tryd.prog 11 #[.agg #[.string ⟨#[104, 116, 116, 112, 115]⟩, .string ⟨#[101, 120, 97, 109, 112, 108, 101, 46, 99, 111, 109]⟩, .int .i64 443]] W fun e w' => e = .returned (.tuple #[.string ⟨#[104, 116, 116, 112, 115, 58, 47, 47, 101, 120, 97, 109, 112, 108, 101, 46, 99, 111, 109]⟩, .int .i64 0]) ∧ Below W.heap.size W w') := fun W hW => by rw [← p3_val]; exact print_any o2 W hW
  unfold httpS exS at H1
  have HE : Hid (Env w) := he
  clear he
  go_enter Tryd.func9, Tryd.ntmps9
  go_wp2_with fail
  go_at_call 12
  refine (H1.out _ HE.out).mono ?_
  rintro e W1 ⟨rfl, b1⟩
  obtain ⟨n1, hn1⟩ : ∃ n, W1.heap.size = n := ⟨_, rfl⟩
  obtain ⟨V1, hV1⟩ : ∃ V, W1.alloc (.cells #[.string ⟨#[104, 116, 116, 112]⟩, .string ⟨#[101, 120, 97, 109, 112, 108, 101, 46, 99, 111, 109]⟩, .int .i64 8080] 23) = V := ⟨_, rfl⟩
  have O1 : Hid (OB V1 n1 o1) := by show OB _ _ _; rw [← hV1, ← hn1]; unfold OB; rw [heap_al, if_pos rfl]; rfl
  have B1 : Hid (Below w.heap.size w V1) := by rw [← hV1]; exact b1.trans ((bel1 _ _).mono b1.size)
  clear b1
  go_wp2_with fail
  clear hV1
  go_at_call 12
  refine (H2.out _ (HE.out.below B1.out)).mono ?_
  rintro e W2 ⟨rfl, b2⟩
  go_wp2_with fail
  obtain ⟨V2, hV2⟩ : ∃ V, W2.alloc (.cells #[.string ⟨#[]⟩, .string ⟨#[]⟩, .int .i64 0] 23) = V := ⟨_, rfl⟩
  have b3 : Below V1.heap.size V1 V2 := by rw [← hV2]; exact b2.trans ((bel1 _ _).mono b2.size)
  have O2 : Hid (OB V2 n1 o1) := O1.out.below b3
  have B2 : Hid (Below w.heap.size w V2) := B1.out.trans (b3.mono B1.out.size)
  rw [hV2]
  clear b2 b3 hV2
  go_at_call 11
  refine (H3.out _ (HE.out.below B2.out)).mono ?_
  rintro e W3 ⟨rfl, b3⟩
  obtain ⟨m, hm⟩ : ∃ m, W3.heap.size = m := ⟨_, rfl⟩
  obtain ⟨V3, hV3⟩ : ∃ V, W3.alloc (.cells #[.string ⟨#[104, 116, 116, 112, 115]⟩, .string ⟨#[101, 120, 97, 109, 112, 108, 101, 46, 99, 111, 109]⟩, .int .i64 443] 23) = V := ⟨_, rfl⟩
  have b4 : Below V2.heap.size V2 V3 := by rw [← hV3]; exact b3.trans ((bel1 _ _).mono b3.size)
  have O3 : Hid (OB V3 n1 o1) := O2.out.below b4
  have B3 : Hid (Below w.heap.size w V3) := B2.out.trans (b4.mono B2.out.size)
  have HI : Hid (In EO V3 (sv (some ⟨m, 0, none⟩, 1, 1)) [o2]) := in_one V3 m o2 #[.string httpsS, .string exS, .int .i64 443] 23 (0, 0) (by rw [← hV3, ← hm, heap_al, if_pos rfl]; rfl) rfl
  have H4 : Hid (Calls Tryd.prog 14 #[.slice (some ⟨m, 0, none⟩) 1 1] V3 (OfPost [o2] V3)) := of_any (some ⟨m, 0, none⟩, 1, 1) [o2] V3 HI.out (fun o ho => by rw [List.mem_singleton.1 ho]; exact rt_ow o2_rt) (by simp)
  clear b3 b4
  go_wp2_with fail
  clear hV3
  go_at_call 14
  refine H4.out.mono ?_
  rintro e W4 ⟨b5, h5⟩
  rcases h5 with ⟨_, p, b, rfl, hS⟩ | ⟨h5, _⟩
  · have O4 : Hid (OB W4 n1 o1) := O3.out.below b5
    have B4 : Hid (Below w.heap.size w W4) := B3.out.trans (b5.mono B3.out.size)
    have HS : Hid (Se W4 V3.heap.size p b [o2]) := hS
    clear b5 hS
    obtain ⟨d0, d1, d2, _, _, _⟩ := O4.out.cells
    simp only [o1, httpS, exS] at d0 d1 d2
    go_wp2_with fail
    go_at_call 15
    refine (has_any _ _ _ _ _ _ _ (HE.out.below B4.out) HS.out (by decide)).mono ?_
    rintro e W5 ⟨rfl, b6⟩
    rw [h1_val]
    have B5 : Hid (Below w.heap.size w W5) := B4.out.trans (b6.mono B4.out.size)
    have HS5 : Hid (Se W5 V3.heap.size p b [o2]) := HS.out.below b6
    clear b6
    go_wp2_with fail
    go_at_call 15
    refine (has_any _ _ _ _ _ _ _ (HE.out.below B5.out) HS5.out (by decide)).mono ?_
    rintro e W6 ⟨rfl, b7⟩
    rw [h2_val]
    have B6 : Hid (Below w.heap.size w W6) := B5.out.trans (b7.mono B5.out.size)
    clear b7
    go_wp2_with fail
    go_ret
    exact ⟨rfl, B6.out⟩
  · exact absurd of2 h5
end Go.Proofs.YtbifmikndpeafaaDoor
