/- The document's Right, port. -/
import Derived.Test.YtbifmikndpeafaaDoorD1
namespace Go.Proofs.YtbifmikndpeafaaDoor
open Go.RowKit
set_option linter.unusedVariables false
set_option linter.unusedSimpArgs false
set_option maxHeartbeats 4000000 in
set_option maxRecDepth 100000 in
theorem rright_any (o : Og) (w : World) : Calls Tryd.prog 29 #[.agg (ogv o)] w fun e w' => e = .returned (.bool (rtB o)) ∧ Below w.heap.size w w' := by
  obtain ⟨s, h, p⟩ := o
  unfold ogv
  simp only
  have HU : Hid (∀ W, Calls Tryd.prog 30 #[.string s] W fun e w' => e = .returned (.int .i64 (usP s)) ∧ w' = W) := fun W => rusual_any s W
  have HH : Hid (∀ W, Calls Tryd.prog 39 #[.string h] W fun e w' => e = .returned (.bool (hostB h)) ∧ Below W.heap.size W w') := fun W => (rhost_any h W).mono fun e w' hh => ⟨hh.1, by rw [hh.2]; exact Below.refl _ _⟩
  have hb0 : Hid (Below w.heap.size w (w.alloc (.cells #[.string s, .string h, .int .i64 p] 23))) := bel1 _ _
  have hblk : (w.alloc (.cells #[.string s, .string h, .int .i64 p] 23)).heap[w.heap.size]? = some (.cells #[.string s, .string h, .int .i64 p] 23 (0, 0)) := by rw [heap_al, if_pos rfl]
  have hcell : Hid (∀ W', Below (w.heap.size + 1) (w.alloc (.cells #[.string s, .string h, .int .i64 p] 23)) W' → W'.cell? ⟨w.heap.size, 2, none⟩ = some (.int .i64 p)) := fun W' hb => cell_blk ((hb.block _ (by omega)).trans hblk) 2
  clear hblk
  by_cases hu : usP s = 0
  · rw [rt_s hu]
    rw [hu] at HU
    clear hu
    go_enter Tryd.func29, Tryd.ntmps29
    go_wp2_with fail
    go_at_call 30
    refine (HU.out _).mono ?_
    rintro e w1 ⟨rfl, hw1⟩
    rw [hw1]
    clear hw1
    go_wp2_with fail
    go_ret
    exact ⟨by first | rfl | simp, hb0.out⟩
  · have hu' : usP s > 0 := by rcases usP_cases s with ⟨_, e⟩ | ⟨_, e⟩ | ⟨_, _, e⟩ <;> omega
    obtain ⟨u, hus⟩ : ∃ u, usP s = u := ⟨_, rfl⟩
    have HUS : Hid (usP s = u) := hus
    rw [hus] at HU hu'
    clear hu hus
    cases hh : hostB h
    · rw [rt_h hh]
      rw [hh] at HH
      clear hh
      go_enter Tryd.func29, Tryd.ntmps29
      go_wp2_with fail
      go_at_call 30
      refine (HU.out _).mono ?_
      rintro e w1 ⟨rfl, hw1⟩
      rw [hw1]
      clear hw1
      go_wp2_with fail
      go_at_call 39
      refine (HH.out _).mono ?_
      rintro e w1 ⟨rfl, hb1⟩
      have hb2 : Hid (Below w.heap.size w w1) := hb0.out.trans (hb1.mono hb0.out.size)
      clear hb1
      go_wp2_with fail
      go_ret
      exact ⟨by first | rfl | (simp; done) | (simp; omega), hb2.out⟩
    · have HHT : Hid (hostB h = true) := hh
      rw [hh] at HH
      clear hh
      by_cases hp : 1 ≤ p ∧ p ≤ 65535
      · have e : rtB ⟨s, h, p⟩ = true := rtB_iff.2 ⟨by rw [HUS.out]; omega, HHT.out, hp⟩
        rw [e]
        obtain ⟨hp1, hp2⟩ := hp
        clear e
        go_enter Tryd.func29, Tryd.ntmps29
        go_wp2_with fail
        go_at_call 30
        refine (HU.out _).mono ?_
        rintro e w1 ⟨rfl, hw1⟩
        rw [hw1]
        clear hw1
        go_wp2_with fail
        go_at_call 39
        refine (HH.out _).mono ?_
        rintro e w1 ⟨rfl, hb1⟩
        have hb2 : Hid (Below w.heap.size w w1) := hb0.out.trans (hb1.mono hb0.out.size)
        have hcl := hcell.out w1 (by rw [size_al] at hb1; exact hb1)
        clear hb1
        go_wp2_with fail
        go_ret
        exact ⟨by first | rfl | (simp; done) | (simp; omega), hb2.out⟩
      · rw [rt_p hp]
        by_cases hp1 : 1 ≤ p
        · have hp2 : ¬ p ≤ 65535 := fun h => hp ⟨hp1, h⟩
          clear hp
          go_enter Tryd.func29, Tryd.ntmps29
          go_wp2_with fail
          go_at_call 30
          refine (HU.out _).mono ?_
          rintro e w1 ⟨rfl, hw1⟩
          rw [hw1]
          clear hw1
          go_wp2_with fail
          go_at_call 39
          refine (HH.out _).mono ?_
          rintro e w1 ⟨rfl, hb1⟩
          have hb2 : Hid (Below w.heap.size w w1) := hb0.out.trans (hb1.mono hb0.out.size)
          have hcl := hcell.out w1 (by rw [size_al] at hb1; exact hb1)
          clear hb1
          go_wp2_with fail
          go_ret
          exact ⟨by first | rfl | (simp; done) | (simp; omega), hb2.out⟩
        · clear hp
          go_enter Tryd.func29, Tryd.ntmps29
          go_wp2_with fail
          go_at_call 30
          refine (HU.out _).mono ?_
          rintro e w1 ⟨rfl, hw1⟩
          rw [hw1]
          clear hw1
          go_wp2_with fail
          go_at_call 39
          refine (HH.out _).mono ?_
          rintro e w1 ⟨rfl, hb1⟩
          have hb2 : Hid (Below w.heap.size w w1) := hb0.out.trans (hb1.mono hb0.out.size)
          have hcl := hcell.out w1 (by rw [size_al] at hb1; exact hb1)
          clear hb1
          go_wp2_with fail
          go_ret
          exact ⟨by first | rfl | (simp; done) | (simp; omega), hb2.out⟩
end Go.Proofs.YtbifmikndpeafaaDoor
