/- SharePicks. -/
import Derived.Test.YtbmaknjeflblcaaKc
import Derived.Test.YtbmaknjeflblcaaM2
namespace Go.Proofs.Ytbmaknjeflblcaa
open Go.RowKit Go.Maps
set_option linter.unusedVariables false
set_option linter.unusedSimpArgs false

/-- a row of none, just built -/
theorem R.none' {α : Type} {E : El α} {w : World} {g : Nat} (h : w.heap[g]? = some (.cells #[] E.e (0, 0))) : R E w (.slice (some ⟨g, 0, none⟩) 0 0) [] :=
  ⟨by simp [El.cs], .inr ⟨g, 0, #[], rfl, Nat.zero_le _, h, Nat.le_refl _, by decide, by simp, by simp [El.cs]⟩⟩
theorem R.base {α : Type} {E : El α} {w : World} {v : Value} {l : List α} (h : R E w v l) (hl : 0 < l.length) : ∃ g cap, v = .slice (some ⟨g, 0, none⟩) l.length cap ∧ l.length ≤ cap ∧ cap ≤ 9223372036854775807 ∧ g < w.heap.size := by
  rcases h.2 with ⟨rfl, hn⟩ | ⟨g, cap, cur, rfl, _, hg, hn, hm, _⟩
  · omega
  · exact ⟨g, cap, rfl, hn, by unfold maxLen at hm; omega, heap_lt hg⟩
theorem In.take {α : Type} {E : El α} {w : World} {B n cap : Nat} {l : List α} (ok : E.Ok) (h : In E w (.slice (some ⟨B, 0, none⟩) n cap) l) (k : Nat) (hk : k ≤ l.length) : In E w (.slice (some ⟨B, 0, none⟩) k cap) (l.take k) := by
  rcases h with ⟨h, _⟩ | ⟨a, c, h1, h2, h3, h4⟩
  · cases h
  · injection h1 with h1 h5 h6
    injection h1 with h1
    subst h1 h6
    refine .inr ⟨_, cap, by rw [List.length_take, Nat.min_eq_left hk], by rw [List.length_take]; omega, h3, fun j u hu => h4 j u ?_⟩
    have hj := (List.getElem?_eq_some_iff.1 hu).1
    have : E.cs l = E.cs (l.take k) ++ E.cs (l.drop k) := by rw [← El.cs_append, List.take_append_drop]
    rw [this, List.getElem?_append_left hj]
    exact hu
set_option maxRecDepth 100000 in
theorem slice22_h {g n m c : Nat} (hm : m ≤ c) (W : World) : (Instr.slice 22 (.slice (some ⟨g, 0, none⟩) n c) none (some (.int .i64 (m : Int))) none).run Try.prog W = .ok (.slice (some ⟨g, 0, none⟩) m c) W := by
  have hs : (sizeOf 2).run Try.prog W = .ok 1 W := by kernel_rfl
  rw [run_slice_h (P := Try.prog) W 22 (some ⟨g, 0, none⟩) n c Try.underlying22 .i64 (m : Int) (by omega) (by omega)]
  show ((sizeOf 2).run Try.prog W).andThen _ = _
  rw [hs]
  simp [Result.andThen, sliced, Addr.add]
set_option maxRecDepth 100000 in
set_option maxHeartbeats 1000000 in
theorem sharePicks_any (v : SV) (l : List Int) (n : Int) (w : World) (hI : In EI w (sv v) l) (hz : (l.length + 1) * 8 ≤ 140737488355328) :
    Calls Try.prog 3 #[sv v, .int .i64 n] w fun e w' => e = .returned (.bool true) ∧ Below w.heap.size w w' := by
  obtain ⟨b, m, c⟩ := v
  unfold sv at hI ⊢
  simp only at hI ⊢
  obtain ⟨rfl, hc1, hc2⟩ := slice_len hI
  have b1 := bel1 w (Obj.cells #[] 2)
  obtain ⟨base, cap, w2, hrun, hR2, hG2⟩ := app okI (w.alloc (Obj.cells #[] 2)) (.slice (some ⟨w.heap.size, 0, none⟩) 0 0) [] (R.none' (heap_alloc_new _ _)) (.slice b l.length c) l (hI.below b1) (by simp [EI]; omega)
  have hw2 : Below w.heap.size w w2 := b1.trans (hG2.belowB b1.size fun k hk => by simp [Value.ownBlock] at hk; omega)
  have b2 := bel1 w2 (Obj.cells #[.int .i64 (-7)] 2)
  obtain ⟨base3, cap3, w3, hrun3, hR3, hG3⟩ := app okI (w2.alloc (Obj.cells #[.int .i64 (-7)] 2)) _ _ (hR2.below b2) (.slice (some ⟨w2.heap.size, 0, none⟩) 1 1) [-7] (in_int _ (-7) _ _ (heap_alloc_new _ _) rfl) (by simp [EI]; omega)
  simp only [List.length_nil, Nat.zero_add, List.nil_append, List.length_singleton] at hrun hR2 hG2 hrun3 hR3 hG3
  have hw3 : Below w.heap.size w w3 := hw2.trans ((b2.mono hw2.size).trans (hG3.belowB (by simp; have := hw2.size; omega) fun k hk => by
    rcases hG2.own k hk with e | e
    · simp [Value.ownBlock] at e; omega
    · simp at e; omega))
  obtain ⟨g, cap', e, hcp, hcm, hg⟩ := hR3.base (by simp)
  rw [List.length_append, List.length_singleton] at e hcp
  injection e with e1 e2 e3
  subst e1 e3
  have HR : Hid (In EI w3 (.slice (some ⟨g, 0, none⟩) (l.length + 1) cap3) (l ++ [-7])) := hR3.isIn
  have HO : Hid (In EI w3 (.slice (some ⟨g, 0, none⟩) l.length cap3) l) := by
    have := In.take okI hR3.isIn l.length (by simp)
    rw [List.take_left'] at this
    · exact this
    · rfl
  have HI : Hid (In EI w (.slice b l.length c) l) := hI
  have HB : Hid (Below w.heap.size w w3) := hw3
  have H1 : Hid _ := hrun
  have H3 : Hid _ := hrun3
  have hsl := fun W => slice22_h (g := g) (n := l.length + 1) (m := l.length) (c := cap3) (by omega) W
  clear hR2 hG2 hR3 hG3 hw2 hw3 b1 b2 hrun hrun3 hI
  go_enter Try.func3, Try.ntmps3
  go_wp2_with (first | (at_builtin; refine Lib.wpList_append_run _ rfl (.tmp 11) (.tmp 12) 22 22 rfl _ _ rfl rfl _ _ H1.out ?_) | (at_builtin; refine Lib.wpList_append_run _ rfl (.tmp 13) (.tmp 14) 22 22 rfl _ _ rfl rfl _ _ H3.out ?_))
  refine (pick_any w3 (some ⟨g, 0, none⟩, l.length, cap3) l n HO.out).mono ?_
  rintro e w4 ⟨rfl, rfl⟩
  go_wp2_with fail
  refine (rpick_any w4 (b, l.length, c) l n (HI.out.below HB.out)).mono ?_
  rintro e w4 ⟨rfl, rfl⟩
  generalize pkV l n = pv
  generalize pkB l = pb
  go_wp2_with fail
  refine (first_any w4).mono ?_
  rintro e w5 ⟨rfl, hB5⟩
  go_wp2_with fail
  refine (same_eq w5 _ _ l (HO.out.below hB5) (HI.out.below (HB.out.trans (hB5.mono HB.out.size)))).mono ?_
  rintro e w6 ⟨rfl, hB6⟩
  obtain ⟨B, off, cp, e, hBl, d1⟩ := ((HR.out.below hB5).below hB6).int1 l.length (by simp)
  injection e with e1 e2 e3
  injection e1 with e1
  injection e1 with e1 e4
  subst e1 e4
  clear e2 e3
  have d2 : w6.cell? ⟨g, 0 + l.length, none⟩ = some (.int .i64 (-7)) := by rw [d1]; simp
  rw [Nat.zero_add] at d2
  clear d1
  go_wp2_with fail
  go_ret
  exact ⟨rfl, (HB.out.trans (hB5.mono HB.out.size)).trans (hB6.mono (Nat.le_trans HB.out.size hB5.size))⟩
end Go.Proofs.Ytbmaknjeflblcaa
