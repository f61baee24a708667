/- kept. -/
import Derived.Test.YtfkimdgbkfogcaaDoorA7
namespace Go.Proofs.YtfkimdgbkfogcaaDoor
open Go.RowKit
set_option linter.unusedVariables false
set_option linter.unusedSimpArgs false

theorem wrap64_small (n : Int) (h₀ : 0 ≤ n) (h₁ : n ≤ 9223372036854775807) : wrap64 n = n := by unfold wrap64; omega

set_option maxRecDepth 100000 in
set_option maxHeartbeats 2000000 in
theorem kept_any (w : World) (g cap : Nat) (v : Value) (l : List (Int × Int)) (hm : R EP w (.slice (some ⟨g, 0, none⟩) (l.length + 2) cap) (l ++ marks)) (hv : In EP w v l) :
    Calls Tryd.prog 31 #[.slice (some ⟨g, 0, none⟩) l.length cap, v] w fun e w' => e = .returned (.bool true) ∧ Below w.heap.size w w' := by
  have hfr : R EP w (.slice (some ⟨g, 0, none⟩) l.length cap) l := R.front okP (r := marks) hm (fun e => by cases e)
  have hsame := sameParams_eq w _ v l hfr.isIn hv
  obtain ⟨_, _, e, hc1, hc2⟩ := hm.slice
  injection e with ex ey e3
  subst e3
  clear ex ey
  rw [List.length_append] at hc1
  simp only [marks, List.length_cons, List.length_nil, Nat.zero_add] at hc1
  obtain ⟨B1, off1, cap1, e1, hB1, p1, p2⟩ := hm.isIn.par l.length (by simp [marks])
  obtain ⟨B2, off2, cap2, e2, hB2, p3, p4⟩ := hm.isIn.par (l.length + 1) (by simp [marks])
  injection e1 with e1 ex ey
  clear ex ey
  injection e1 with e1
  injection e1 with e1 e1' ex
  subst e1
  subst e1'
  injection e2 with e2 ex ey
  clear ex ey
  injection e2 with e2
  injection e2 with e2 e2' ex
  subst e2
  subst e2'
  have r1 : (l ++ marks)[l.length]? = some (-7, -1) := by rw [List.getElem?_append_right (Nat.le_refl _), Nat.sub_self]; rfl
  have r2 : (l ++ marks)[l.length + 1]? = some (-8, -2) := by rw [List.getElem?_append_right (by omega), show l.length + 1 - l.length = 1 by omega]; rfl
  have q1 := (List.getElem?_eq_some_iff.1 r1).2
  have q2 := (List.getElem?_eq_some_iff.1 r2).2
  rw [q1] at p1 p2
  rw [q2] at p3 p4
  simp only [Nat.zero_add] at p1 p2 p3 p4
  obtain ⟨vb, vc, rfl, hv1, hv2⟩ := hv.slice
  obtain ⟨n, hn⟩ : ∃ n, l.length = n := ⟨_, rfl⟩
  rw [hn] at p1 p2 p3 p4 hsame hc1 hv1 ⊢
  have hcall : Calls Tryd.prog 19 #[.slice (some ⟨g, 0, none⟩) n cap, .slice vb n vc] w fun e w' => e = .returned (.bool true) ∧ Hid (Below w.heap.size w w') ∧ w'.cell? ⟨g, n * 2, none⟩ = some (.int .i64 (-7)) ∧ w'.cell? ⟨g, n * 2 + 1, none⟩ = some (.int .i64 (-1)) ∧ w'.cell? ⟨g, (n + 1) * 2, none⟩ = some (.int .i64 (-8)) ∧ w'.cell? ⟨g, (n + 1) * 2 + 1, none⟩ = some (.int .i64 (-2)) := by
    refine hsame.mono ?_
    rintro e w' ⟨rfl, hb⟩
    exact ⟨rfl, hb, (hb.cell hB1).trans p1, (hb.cell hB1).trans p2, (hb.cell hB1).trans p3, (hb.cell hB1).trans p4⟩
  have hnc : (n : Int) + 2 ≤ (cap : Int) := by omega
  have hnc' : n + 2 ≤ cap := by omega
  have hcm : (cap : Int) ≤ 9223372036854775807 := by omega
  clear hm hv hfr hsame p1 p2 p3 p4 q1 q2 r1 r2 hn hc1
  go_enter Tryd.func31, Tryd.ntmps31
  go_wp2_with (go_at_call 19; refine hcall.mono ?_; clear hcall; rintro e w1 ⟨rfl, HB, p1, p2, p3, p4⟩)
  go_ret
  exact ⟨rfl, HB.out⟩
end Go.Proofs.YtfkimdgbkfogcaaDoor
