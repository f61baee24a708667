/- The document's Split. -/
import Derived.Test.YtdgdjanchpfleaaA9
import Derived.Test.YtdgdjanchpfleaaD1
namespace Go.Proofs.Ytdgdjanchpfleaa
open Go.RowKit
set_option linter.unusedVariables false
set_option linter.unusedSimpArgs false

set_option maxHeartbeats 4000000 in
set_option maxRecDepth 100000 in
theorem rsplit_arg (h : Fr) (x : SV) (t : ByteArray) (size : Int) (w : World) (hbad : ¬ (MS h ∧ 16384 ≤ size ∧ size ≤ 65536)) :
    Calls Try.prog 17 #[.agg (fv h (sv x)), .string t, .int .i64 size] w fun e w' => e = .returned (.tuple #[.slice none 0 0, .int .i64 1]) ∧ Below w.heap.size w w' := by
  have hC : Hid (∀ W, Calls Try.prog 29 #[.agg (fv h (sv x))] W fun e w' => e = .returned (.bool (dH h.ty)) ∧ Below W.heap.size W w') := fun W => rhead_any h (sv x) W
  have hC2 : Hid (∀ W, Calls Try.prog 30 #[.int .i64 h.fl, .int .i64 8] W fun e w' => e = .returned (.bool (bits .and .i64 h.fl 8 != 0)) ∧ w' = W) := fun W => rhas_any _ _ W
  obtain ⟨H, hH⟩ : ∃ H, dH h.ty = H := ⟨_, rfl⟩
  obtain ⟨P, hP⟩ : ∃ P, (bits .and .i64 h.fl 8 != 0) = P := ⟨_, rfl⟩
  have hbad' : H = true → h.data = ⟨#[]⟩ → ¬ h.st < 1 → ¬ h.pad < 0 → ¬ 255 < h.pad → ¬ (h.pad ≠ 0 ∧ P = false) → ¬ size < 16384 → 65536 < size := by
    intro a1 a2 a3 a4 a5 a6 a7
    apply Classical.byContradiction
    intro a8
    refine hbad ⟨⟨dH_iff.1 (hH.trans a1), a2, by omega, by omega, ?_⟩, by omega, by omega⟩
    rw [hP]
    split
    · omega
    · rename_i h9
      have := Classical.byContradiction fun h0 : h.pad ≠ 0 => a6 ⟨h0, by simpa using h9⟩
      omega
  rw [hH] at hC
  rw [hP] at hC2
  have F0 : Hid (FB (w.alloc (.cells (fv h (sv x)) 24)) w.heap.size h (sv x)) := by show FB _ _ _ _; unfold FB; rw [heap_al, if_pos rfl]
  have B0 : Hid (Below w.heap.size w (w.alloc (.cells (fv h (sv x)) 24))) := bel1 w _
  obtain ⟨xb, xl, xc⟩ := x
  simp only [sv] at hC F0 B0 ⊢
  have go : ∀ (a1 : Prop), Hid a1 → Hid a1 := fun _ h => h
  unfold fv at hC B0 F0 ⊢
  clear hbad hH hP
  replace hbad' : Hid _ := hbad'
  cases H
  · go_enter Try.func17, Try.ntmps17
    go_wp2_with fail
    go_at_call 29
    refine (hC.out _).mono ?_
    rintro e w1 ⟨rfl, hb⟩
    have B1 : Hid (Below w.heap.size w w1) := B0.out.trans (hb.mono B0.out.size)
    clear hb
    go_wp2_with fail
    go_ret2
    exact ⟨rfl, B1.out⟩
  · go_enter Try.func17, Try.ntmps17
    go_wp2_with fail
    go_at_call 29
    refine (hC.out _).mono ?_
    rintro e w1 ⟨rfl, hb⟩
    have B1 : Hid (Below w.heap.size w w1) := B0.out.trans (hb.mono B0.out.size)
    obtain ⟨c0, c1, c2, c3, c4, c5, c6, c7, c8, c9, c10⟩ := FB.cells (FB.below F0.out hb)
    clear hb hC B0 F0
    go_wp2_with fail
    all_goals first
      | (go_ret2; exact ⟨rfl, B1.out⟩)
      | (exfalso
         have q := hbad'.out trivial ((ba_nil _).2 (by assumption)) (by omega) (by omega) (by omega) (fun hh => by have := hh.1; omega) (by omega)
         omega)
      | (go_at_call 30
         refine (hC2.out _).mono ?_
         rintro e w2 ⟨rfl, rfl⟩
         cases P
         all_goals
           go_wp2_with fail
           all_goals first
             | (go_ret2; exact ⟨rfl, B1.out⟩)
             | (exfalso
                have q := hbad'.out trivial ((ba_nil _).2 (by assumption)) (by omega) (by omega) (by omega) (fun hh => by cases hh.2) (by omega)
                omega)
             | trace_state)
      | trace_state

/-- of a head frame that may be cut: what is asked -/
theorem MS.parts {h : Fr} (hm : MS h) : dH h.ty = true ∧ ¬ h.st < 1 ∧ ¬ h.pad < 0 ∧ ¬ 255 < h.pad ∧ h.data.toList = [] ∧ (h.pad ≠ 0 → (bits .and .i64 h.fl 8 != 0) = true) := by
  obtain ⟨a1, a2, a3, a4, a5⟩ := hm
  refine ⟨dH_iff.2 a1, by omega, by omega, ?_, (ba_nil _).1 a2, fun h0 => ?_⟩
  · split at a5 <;> omega
  · split at a5
    · assumption
    · omega

set_option maxHeartbeats 4000000 in
set_option maxRecDepth 100000 in
theorem rsplit_long (h : Fr) (x : SV) (t : ByteArray) (size : Int) (w : World) (hok : MS h ∧ 16384 ≤ size ∧ size ≤ 65536) (hl : 131072 < t.size) :
    Calls Try.prog 17 #[.agg (fv h (sv x)), .string t, .int .i64 size] w fun e w' => e = .returned (.tuple #[.slice none 0 0, .int .i64 3]) ∧ Below w.heap.size w w' := by
  obtain ⟨hm, s1, s2⟩ := hok
  obtain ⟨m1, m2, m3, m4, m5, m6⟩ := hm.parts
  have hC : Hid (∀ W, Calls Try.prog 29 #[.agg (fv h (sv x))] W fun e w' => e = .returned (.bool true) ∧ Below W.heap.size W w') := fun W => by have := rhead_any h (sv x) W; rw [m1] at this; exact this
  have hC2 : Hid (h.pad ≠ 0 → ∀ W, Calls Try.prog 30 #[.int .i64 h.fl, .int .i64 8] W fun e w' => e = .returned (.bool true) ∧ w' = W) := fun h0 W => by have := rhas_any h.fl 8 W; rw [m6 h0] at this; exact this
  have F0 : Hid (FB (w.alloc (.cells (fv h (sv x)) 24)) w.heap.size h (sv x)) := by show FB _ _ _ _; unfold FB; rw [heap_al, if_pos rfl]
  have B0 : Hid (Below w.heap.size w (w.alloc (.cells (fv h (sv x)) 24))) := bel1 w _
  have hl' : (131072 : Int) < (t.size : Int) := by omega
  have s1' : ¬ size < 16384 := by omega
  have s2' : ¬ 65536 < size := by omega
  obtain ⟨xb, xl, xc⟩ := x
  simp only [sv] at hC F0 B0 ⊢
  unfold fv at hC B0 F0 ⊢
  clear hm m1 m6 hl s1 s2
  go_enter Try.func17, Try.ntmps17
  go_wp2_with fail
  go_at_call 29
  refine (hC.out _).mono ?_
  rintro e w1 ⟨rfl, hb⟩
  have B1 : Hid (Below w.heap.size w w1) := B0.out.trans (hb.mono B0.out.size)
  obtain ⟨c0, c1, c2, c3, c4, c5, c6, c7, c8, c9, c10⟩ := FB.cells (FB.below F0.out hb)
  clear hb hC B0 F0
  by_cases h0 : h.pad = 0
  · have h0' : (h.pad != 0) = false := by simp [h0]
    clear hC2 h0
    go_wp2_with fail
    go_ret2
    exact ⟨rfl, B1.out⟩
  · have h0' : (h.pad != 0) = true := by simp [h0]
    replace hC2 : Hid (∀ W, _) := hC2.out h0
    clear h0
    go_wp2_with fail
    go_at_call 30
    refine (hC2.out _).mono ?_
    rintro e w2 ⟨rfl, rfl⟩
    go_wp2_with fail
    go_ret2
    exact ⟨rfl, B1.out⟩
end Go.Proofs.Ytdgdjanchpfleaa
