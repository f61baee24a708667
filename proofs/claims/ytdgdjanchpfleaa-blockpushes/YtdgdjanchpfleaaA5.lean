/- same, of frames that are alike. -/
import Derived.Test.YtdgdjanchpfleaaA4
namespace Go.Proofs.Ytdgdjanchpfleaa
open Go.RowKit
set_option linter.unusedVariables false
set_option linter.unusedSimpArgs false

/-- two frames in two new blocks -/
theorem same_world (w : World) (f : Fr) (p q : Value) : ∃ W0, W0 = (w.alloc (.cells (fv f p) 24)).alloc (.cells (fv f q) 24) ∧ FB W0 w.heap.size f p ∧ FB W0 (w.heap.size + 1) f q ∧ Below w.heap.size w W0 :=
  ⟨_, rfl, (FB.al2 w f f p q).1, (FB.al2 w f f p q).2, bel2 w _ _⟩

set_option maxRecDepth 100000 in
set_option maxHeartbeats 4000000 in
theorem same_eq (f : Fr) (w : World) (x y : SV) (l : List (Int × Int)) (hp : In EP w (sv x) l) (hq : In EP w (sv y) l) :
    Calls Try.prog 13 #[.agg (fv f (sv x)), .agg (fv f (sv y))] w fun e w' => e = .returned (.bool true) ∧ Below w.heap.size w w' := by
  obtain ⟨pb, pl, pc⟩ := x
  obtain ⟨qb, ql, qc⟩ := y
  simp only [sv] at hp hq ⊢
  obtain ⟨pb', pc', e1, m1, m2⟩ := hp.slice
  obtain ⟨qb', qc', e2, m3, m4⟩ := hq.slice
  cases e1
  cases e2
  obtain ⟨n, hn⟩ : ∃ n, l.length = n := ⟨_, rfl⟩
  have HN : Hid (l.length = n) := hn
  have HP : Hid (In EP w (.slice pb n pc) l) := by rw [← hn]; exact hp
  have HQ : Hid (In EP w (.slice qb n qc) l) := by rw [← hn]; exact hq
  rw [hn] at m1 m3 ⊢
  clear hp hq hn
  have hnl : (n : Int) ≤ 9223372036854775807 := by omega
  obtain ⟨W0, hW0, b2, b3, hbel⟩ := same_world w f (.slice pb n pc) (.slice qb n qc)
  have B2 : Hid (FB W0 w.heap.size f (.slice pb n pc)) := b2
  have B3 : Hid (FB W0 (w.heap.size + 1) f (.slice qb n qc)) := b3
  have HB : Hid (Below w.heap.size w W0) := hbel
  have HW : Hid _ := hW0
  unfold fv
  clear b2 b3 hbel hW0
  go_enter Try.func13, Try.ntmps13
  go_wp2_with fail
  go_loopw [5] (fun i wr => ∃ k : Nat, k ≤ n ∧ i = .int .i64 (k : Int) ∧ Hid (Below W0.heap.size W0 wr)) (fun i _ => n - (intOf i).toNat)
  case atStart => exact ⟨0, by omega, rfl, by rw [HW.out]; exact Below.refl _ _⟩
  case round =>
    obtain ⟨k, hk, rfl, hb⟩ := hrel
    have c2 := (B2.out.below hb.out).cell 10
    have c3 := (B3.out.below hb.out).cell 10
    simp only [fv, List.getElem?_toArray, List.getElem?_cons_succ, List.getElem?_cons_zero] at c2 c3
    by_cases hlt : k < n
    · obtain ⟨u, v, g, g', o, o', hpb, hqb, d1, d2, e1, e2⟩ : ∃ (u v : Int) (g g' o o' : Nat), pb = some ⟨g, o, none⟩ ∧ qb = some ⟨g', o', none⟩ ∧
          wr.cell? ⟨g, o + k * 2, none⟩ = some (.int .i64 u) ∧ wr.cell? ⟨g, o + k * 2 + 1, none⟩ = some (.int .i64 v) ∧ wr.cell? ⟨g', o' + k * 2, none⟩ = some (.int .i64 u) ∧ wr.cell? ⟨g', o' + k * 2 + 1, none⟩ = some (.int .i64 v) := by
        have hl := HN.out
        have hbw : Below w.heap.size w wr := HB.out.trans (hb.out.mono HB.out.size)
        obtain ⟨g, o, cap, e, h1, h2⟩ := HP.out.get okP k (by omega)
        obtain ⟨g', o', cap', e', h1', h2'⟩ := HQ.out.get okP k (by omega)
        cases e
        cases e'
        exact ⟨_, _, g, g', o, o', rfl, rfl, (hbw.cell h1).trans (h2 0 _ rfl), (hbw.cell h1).trans (h2 1 _ rfl), (hbw.cell h1').trans (h2' 0 _ rfl), (hbw.cell h1').trans (h2' 1 _ rfl)⟩
      subst hpb
      subst hqb
      go_wp2_with fail
      go_region
      all_goals
        go_wp2_with fail
        go_roundw
        case rel => exact ⟨k + 1, by omega, by simp, hb.out.drew⟩
        case measure => simp [intOf]; omega
    · obtain rfl : k = n := by omega
      go_wp2_with fail
      go_ret
      exact ⟨rfl, HB.out.trans (hb.out.mono HB.out.size)⟩
end Go.Proofs.Ytdgdjanchpfleaa
