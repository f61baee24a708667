/- The document's Fits. -/
import Derived.Test.YtfkimdgbkfogcaaDoorA6
import Derived.Test.YtfkimdgbkfogcaaDoorA4
import Derived.Test.YtfkimdgbkfogcaaDoorD1
namespace Go.Proofs.YtfkimdgbkfogcaaDoor
open Go.RowKit
set_option linter.unusedVariables false
set_option linter.unusedSimpArgs false

def fitK (s : St) (k : Nat) : Bool := (List.range k).all fun i => inB (s.nth i) (St.low.nth i) (St.high.nth i)
theorem fitK_six (s : St) : fitK s 6 = fitsS s := by
  simp only [fitK, fitsS, show List.range 6 = [0, 1, 2, 3, 4, 5] from rfl, List.all_cons, List.all_nil, Bool.and_true, Bool.and_assoc]
  rfl
theorem fitK_stop (s : St) (k : Nat) (hk : k < 6) (h : inB (s.nth k) (St.low.nth k) (St.high.nth k) = false) : fitsS s = false := by
  rw [← fitK_six, fitK, List.all_eq_false]
  exact ⟨k, List.mem_range.2 hk, by simp [h]⟩

set_option maxRecDepth 100000 in
set_option maxHeartbeats 4000000 in
theorem rfits_any (s : St) (w : World) (hL : Low w) (hH : High w) : Calls Tryd.prog 30 #[.agg s.a] w fun e w' => e = .returned (.bool (fitsS s)) ∧ Below w.heap.size w w' := by
  have HS : Hid (∀ k, k < 6 → inB (s.nth k) (St.low.nth k) (St.high.nth k) = false → fitsS s = false) := fun k hk h => fitK_stop s k hk h
  have HF : Hid (fitK s 6 = fitsS s) := fitK_six s
  obtain ⟨r, hr⟩ : ∃ r, fitsS s = r := ⟨_, rfl⟩
  rw [hr] at HS HF ⊢
  clear hr
  have HLo : Hid (Low w) := hL
  have HHi : Hid (High w) := hH
  clear hL hH
  have h6 := fun W => six_any s W
  have hblk : Hid (∀ W : World, ((((W.alloc (.cells s.a 27)).alloc (.cells s.a 27)).alloc (.cells s.a 68)).alloc (.cells s.a 68)).heap[W.heap.size + 1 + 1 + 1]? = some (.cells s.a 68 (0, 0))) := fun W => by
    simp only [heap_al, size_al]
    rw [if_pos trivial]
  obtain ⟨S0, hS0⟩ : ∃ S0, S0 = s := ⟨_, rfl⟩
  have HS0 : Hid (∀ (W : World) (g k : Nat), k < 6 → W.heap[g]? = some (.cells s.a 68 (0, 0)) → W.cell? ⟨g, k, none⟩ = some (.int .i64 (S0.nth k))) := fun W g k hk h => by rw [hS0]; exact nth_cell h k hk
  rw [← hS0] at HS HF
  clear hS0
  obtain ⟨s1, s2, s3, s4, s5, s6⟩ := s
  simp only [St.a] at h6 hblk HS0 ⊢
  go_enter Tryd.func30, Tryd.ntmps30
  go_wp2_with (go_at_call 42; refine (h6 _).mono ?_; rintro e w' ⟨rfl, rfl⟩)
  have hB0 : Below w.heap.size w ((((w.alloc (.cells #[.int .i64 s1, .int .i64 s2, .int .i64 s3, .int .i64 s4, .int .i64 s5, .int .i64 s6] 27)).alloc (.cells #[.int .i64 s1, .int .i64 s2, .int .i64 s3, .int .i64 s4, .int .i64 s5, .int .i64 s6] 27)).alloc (.cells #[.int .i64 s1, .int .i64 s2, .int .i64 s3, .int .i64 s4, .int .i64 s5, .int .i64 s6] 68)).alloc (.cells #[.int .i64 s1, .int .i64 s2, .int .i64 s3, .int .i64 s4, .int .i64 s5, .int .i64 s6] 68)) := by
    repeat (first | exact Below.refl _ _ | (refine Below.alloc ?_ (by first | omega | (simp only [size_al, size_dr]; omega)) _))
  go_loopw [4] (fun i wr => ∃ k : Nat, k ≤ 6 ∧ i = .int .i64 (k : Int) ∧ Hid (fitK S0 k = true ∧ Below w.heap.size w wr ∧ wr.heap[w.heap.size + 1 + 1 + 1]? = some (.cells #[.int .i64 s1, .int .i64 s2, .int .i64 s3, .int .i64 s4, .int .i64 s5, .int .i64 s6] 68 (0, 0)))) (fun i _ => 6 - (intOf i).toNat)
  case atStart => exact ⟨0, by omega, rfl, rfl, hB0, hblk.out w⟩
  case round =>
    obtain ⟨k, hk, rfl, HP⟩ := hrel
    obtain ⟨hfk, hB, h3⟩ := HP.out
    clear hB0 hblk h6
    by_cases hlt : k < 6
    · have d0 := HS0.out wr _ k hlt h3
      obtain ⟨tl, hl⟩ := HLo.out.below hB
      obtain ⟨th, hh⟩ := HHi.out.below hB
      have dl := nth_cell hl k hlt
      have dh := nth_cell hh k hlt
      have hlti : (k : Int) < 6 := by omega
      have hw : 3 < wr.heap.size := heap_lt hh
      obtain ⟨X, hX⟩ : ∃ X, S0.nth k = X := ⟨_, rfl⟩
      obtain ⟨Lo, hLo⟩ : ∃ X, St.low.nth k = X := ⟨_, rfl⟩
      obtain ⟨Hi, hHi⟩ : ∃ X, St.high.nth k = X := ⟨_, rfl⟩
      rw [hX] at d0
      rw [hLo] at dl
      rw [hHi] at dh
      by_cases h1 : X < Lo
      · have hd1 : decide (X < Lo) = true := by simpa using h1
        have hr : Hid (r = false) := HS.out k hlt (by rw [hX, hLo, hHi]; simp [inB]; omega)
        clear HP hfk h3 hl hh hX hLo hHi HS HF
        go_wp2_with fail
        go_region
        all_goals
          go_wp2_with fail
          go_ret
          exact ⟨by rw [hr.out]; rfl, hB.drew⟩
      · have hd1 : decide (X < Lo) = false := by simpa using h1
        by_cases h2 : Hi < X
        · have hd2 : decide (Hi < X) = true := by simpa using h2
          have hr : Hid (r = false) := HS.out k hlt (by rw [hX, hLo, hHi]; simp [inB]; omega)
          clear HP hfk h3 hl hh hX hLo hHi HS HF
          go_wp2_with fail
          go_region
          all_goals
            go_wp2_with fail
            go_ret
            exact ⟨by rw [hr.out]; rfl, hB.drew⟩
        · have hd2 : decide (Hi < X) = false := by simpa using h2
          have hfk1 : Hid (fitK S0 (k + 1) = true) := by
            show fitK S0 (k + 1) = true
            unfold fitK at hfk ⊢
            rw [List.range_succ, List.all_append, hfk, Bool.true_and, List.all_cons, List.all_nil, Bool.and_true, hX, hLo, hHi]
            simp [inB]; omega
          have H3 : Hid _ := h3
          clear HP hfk hl hh hX hLo hHi HS HF h3
          go_wp2_with fail
          go_region
          all_goals
            go_wp2_with fail
            go_roundw
            case rel => exact ⟨k + 1, by omega, by simp, hfk1.out, hB.drew, H3.out⟩
            case measure => simp [intOf]; omega
    · obtain rfl : k = 6 := by omega
      have hr : Hid (r = true) := HF.out.symm.trans hfk
      clear HP hfk h3 HS HF
      go_wp2
      go_ret
      exact ⟨by rw [hr.out]; rfl, hB⟩
end Go.Proofs.YtfkimdgbkfogcaaDoor
