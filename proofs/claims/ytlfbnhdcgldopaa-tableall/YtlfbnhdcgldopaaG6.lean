/- TableAll, walked. -/
import Derived.Test.YtlfbnhdcgldopaaG5
namespace Go.Proofs.Ytlfbnhdcgldopaa
open Go.RowKit

set_option maxRecDepth 100000 in
set_option maxHeartbeats 20000000 in
theorem tableAll_any (w : World) (one two : Int) (sv : Value) (l : List OpT) (hO : Opers w sv l) (hf : FineO l) :
    Calls Try.prog 7 #[.int .i64 one, .int .i64 two, sv] w fun e w' => e = .returned (.bool true) ∧ Below w.heap.size w w' := by
  have hO' := hO
  obtain ⟨hl63, base, cap, rfl, _⟩ := hO
  have HR : Hid (∀ k, k < l.length → ∃ (kind : Int) (two : Bool) (n x : ByteArray) (m : Int) (g off : Nat), n.size + x.size + 32 ≤ 4611686018427387904 ∧ base = some ⟨g, off, none⟩ ∧ l.length ≤ cap ∧ cap ≤ 9223372036854775807 ∧ ∀ W, Below w.heap.size w W →
      W.cell? ⟨g, off + k * 5, none⟩ = some (.int .i64 kind) ∧ W.cell? ⟨g, off + k * 5 + 1, none⟩ = some (.bool two) ∧ W.cell? ⟨g, off + k * 5 + 2, none⟩ = some (.string n) ∧
      W.cell? ⟨g, off + k * 5 + 3, none⟩ = some (.string x) ∧ W.cell? ⟨g, off + k * 5 + 4, none⟩ = some (.int .i64 m)) := fun k hk => opers_round hO' hf k hk
  clear hO' hf
  go_enter Try.func7, Try.ntmps7
  go_wp2_with fail
  refine (head_any w).mono ?_
  rintro e w1 ⟨rfl, hb1⟩
  have H1 := (show All w [] w1 from ⟨fun t ht => by simp at ht, List.Pairwise.nil, hb1⟩).box #[.pointer none, .pointer none, .pointer none, .pointer none] 51
  clear hb1
  go_wp2_with fail
  generalize w1.heap.size = L at H1 ⊢
  by_cases h1 : 0 ≤ one ∧ one ≤ 65536
  · obtain ⟨m1, rfl⟩ : ∃ m1 : Nat, one = (m1 : Int) := ⟨one.toNat, by omega⟩
    have h1' : m1 ≤ 65536 := by omega
    refine (made_good H1 m1 h1').mono ?_
    clear h1
    rintro e w2 ⟨bp0, br0, rfl, H2⟩
    have H3 := H2.box #[pt bp0, pt br0] 50
    clear H2 H1
    go_wp2_with fail
    generalize w2.heap.size = k8 at H3 ⊢
    by_cases h2 : 0 ≤ two ∧ two ≤ 65536
    · obtain ⟨m2, rfl⟩ : ∃ m2 : Nat, two = (m2 : Int) := ⟨two.toNat, by omega⟩
      have h2' : m2 ≤ 65536 := by omega
      refine (made_good H3 m2 h2').mono ?_
      clear h2
      rintro e w3 ⟨bp1, br1, rfl, H4⟩
      have H5 := H4.box #[pt bp1, pt br1] 50
      obtain ⟨c80, c81, hk8⟩ := box2 (H4.get [_, _] _ (.box k8 #[pt bp0, pt br0] 50) rfl)
      obtain ⟨⟨z0, z1, z2, z3⟩, ⟨y0, y1, y2, y3⟩, hL⟩ := box_facts (H4.get [_, _, _, _, _] _ (.box L #[.pointer none, .pointer none, .pointer none, .pointer none] 51) rfl)
      have hQ0 := (two_boxes H4).below ((Below.refl _ _).alloc (Nat.le_refl _) (.cells #[pt bp1, pt br1] 50))
      clear H5 H4 H3
      go_wp2_with fail
      go_loopw [12] (fun i wr => ∃ k : Nat, k ≤ l.length ∧ i = .int .i64 (k : Int) ∧ ∃ bp0 br0 mx0 es0 bp1 br1 mx1 es1, Quad w L bp0 br0 mx0 es0 bp1 br1 mx1 es1 wr) (fun i _ => l.length - (intOf i).toNat)
      case atStart => exact ⟨0, by omega, rfl, _, _, _, _, _, _, _, _, hQ0⟩
      case round =>
        clear hQ0 c80 c81 hk8 z0 z1 z2 z3 y0 y1 y2 y3 hL h1' h2'
        obtain ⟨k, hk, rfl, P0, R0, M0, X0, P1, R1, M1, X1, hQ⟩ := hrel
        obtain ⟨⟨d0, d1, d2, d3⟩, ⟨f0, f1, f2, f3⟩, hL⟩ := hQ.facts
        by_cases hlt : k < l.length
        · obtain ⟨kind, two, n, x, m, g, off, hsz, hbase, hc1, hc2, HC⟩ := HR.out k hlt
          subst hbase
          obtain ⟨s0, s1, s2, s3, s4⟩ := HC wr hQ.old
          have hQd : Quad w L P0 R0 M0 X0 P1 R1 M1 X1 wr.drew := hQ.below ⟨rfl, rfl, rfl, Nat.le_refl _, fun _ _ => rfl⟩
          clear HC HR
          cases two with
          | false =>
            by_cases h5 : kind = 5
            · subst h5
              have hQp := hQd.plain
              have hQb : QuadT w L P0 R0 M0 X0 P1 R1 M1 X1 [nb wr.heap.size] (wr.drew.alloc (.cells #[.pointer none, .pointer none] 50)) := hQd.boxed
              go_wp2_with fail
              go_region_with (first | (go_at_call 20; refine hQp.copy0.mono ?_; rintro e w2 ⟨c, rfl, hH⟩; obtain ⟨⟨g0, g1, g2, g3⟩, _, _⟩ := hH.facts) | (go_at_call 20; refine hQb.copy0.mono ?_; rintro e w2 ⟨c, rfl, hH⟩; obtain ⟨⟨g0, g1, g2, g3⟩, _, _⟩ := hH.facts) | (go_at_call 22; refine hH.copy0.mono ?_; rintro e w3 ⟨c', rfl, hE⟩; obtain ⟨o0, o1, o2, o3, oL⟩ := hE.box _) | (go_at_call 22; refine hH.copy0.mono ?_; rintro e w3 ⟨c', rfl, hE⟩) | (go_at_call 22; refine hH.boxed.copy0.mono ?_; rintro e w3 ⟨c', rfl, hE⟩; obtain ⟨o0, o1, o2, o3, oL⟩ := hE.box _))
              all_goals
                obtain ⟨⟨r0, r1, r2, r3⟩, ⟨j0, j1, j2, j3⟩, hL3⟩ := hE.plain.facts
                first
                | have hQ3 := (hE.fill _ (pt c) (pt c')).set1
                  have oL2 : ¬ _ = L := fun e => oL e.symm
                | have hQ3 := hE.plain.set1.below ((Below.refl _ _).alloc (Nat.le_refl _) (.cells #[pt c, pt c'] 50))
                clear hQ hQd hQp hQb hH hE g0 g1 g2 g3 d0 d1 d2 d3 f0 f1 f2 f3
                obtain ⟨⟨e0, e1, e2, e3⟩, _, _⟩ := hQ3.facts
                replace e0 : Hid _ := e0
                replace e1 : Hid _ := e1
                replace e2 : Hid _ := e2
                replace e3 : Hid _ := e3
                go_wp2_with fail
                refine hQ3.tells0.mono ?_
                clear hQ3 e0 e1 e2 e3
                rintro e w4 ⟨rfl, h4⟩
                obtain ⟨⟨e0, e1, e2, e3⟩, _, _⟩ := h4.facts
                go_wp2_with fail
                refine h4.tells1.mono ?_
                clear h4 e0 e1 e2 e3
                rintro e w5 ⟨rfl, h5⟩
                go_wp2_with fail
                go_roundw
                case rel => exact ⟨k + 1, by omega, by simp, _, _, _, _, _, _, _, _, h5⟩
                case measure => simp [intOf]; omega
            by_cases h6 : kind = 6
            · subst h6
              clear h5
              by_cases hm : 0 ≤ m ∧ m ≤ 65536
              · obtain ⟨m', rfl⟩ : ∃ m' : Nat, m = (m' : Int) := ⟨m.toNat, by omega⟩
                have hm' : m' ≤ 65536 := by omega
                clear hm
                go_wp2_with fail
                refine (hQ.made m' hm').mono ?_
                rintro e w3 ⟨c, c', rfl, hE⟩
                obtain ⟨⟨r0, r1, r2, r3⟩, ⟨j0, j1, j2, j3⟩, hL3⟩ := hE.facts
                have hQ3 := hE.set0.below ((Below.refl _ _).alloc (Nat.le_refl _) (.cells #[pt c, pt c'] 50))
                clear hQ hQd hE d0 d1 d2 d3 f0 f1 f2 f3
                obtain ⟨⟨e0, e1, e2, e3⟩, _, _⟩ := hQ3.facts
                replace e0 : Hid _ := e0
                replace e1 : Hid _ := e1
                replace e2 : Hid _ := e2
                replace e3 : Hid _ := e3
                go_wp2_with fail
                refine hQ3.tells0.mono ?_
                clear hQ3 e0 e1 e2 e3
                rintro e w4 ⟨rfl, h4⟩
                obtain ⟨⟨e0, e1, e2, e3⟩, _, _⟩ := h4.facts
                go_wp2_with fail
                refine h4.tells1.mono ?_
                clear h4 e0 e1 e2 e3
                rintro e w5 ⟨rfl, h5⟩
                go_wp2_with fail
                go_roundw
                case rel => exact ⟨k + 1, by omega, by simp, _, _, _, _, _, _, _, _, h5⟩
                case measure => simp [intOf]; omega
              · go_wp2_with fail
                refine (hQ.unmade m hm).mono ?_
                clear hm
                rintro e w3 ⟨rfl, hE⟩
                have hQ3 := (hE.below ((Below.refl _ w3).alloc (Nat.le_refl _) (.cells #[.pointer none, .pointer none] 50)))
                clear hQ hQd d0 d1 d2 d3 f0 f1 f2 f3
                obtain ⟨⟨e0, e1, e2, e3⟩, _, hL3⟩ := hE.facts
                go_wp2_with fail
                refine hQ3.tells0.mono ?_
                clear hQ3 hE e0 e1 e2 e3
                rintro e w4 ⟨rfl, h4⟩
                obtain ⟨⟨e0, e1, e2, e3⟩, _, _⟩ := h4.facts
                go_wp2_with fail
                refine h4.tells1.mono ?_
                clear h4 e0 e1 e2 e3
                rintro e w5 ⟨rfl, h5⟩
                go_wp2_with fail
                go_roundw
                case rel => exact ⟨k + 1, by omega, by simp, _, _, _, _, _, _, _, _, h5⟩
                case measure => simp [intOf]; omega
            have b5 : (kind == 5) = false := beq_eq_false_iff_ne.2 h5
            have b6 : (kind == 6) = false := beq_eq_false_iff_ne.2 h6
            clear h5 h6
            go_wp2_with fail
            go_region_with (first | (go_at_call 23; refine (hQd.plays0 kind false n x m hsz).mono ?_; rintro e w3 ⟨rfl, mx', es', hE⟩))
            all_goals
              have hQ3 := hE
              clear hQ hQd d0 d1 d2 d3 f0 f1 f2 f3
              obtain ⟨⟨e0, e1, e2, e3⟩, _, _⟩ := hQ3.facts
              go_wp2_with fail
              refine hQ3.tells0.mono ?_
              clear hQ3 e0 e1 e2 e3
              rintro e w4 ⟨rfl, h4⟩
              obtain ⟨⟨e0, e1, e2, e3⟩, _, _⟩ := h4.facts
              go_wp2_with fail
              refine h4.tells1.mono ?_
              clear h4 e0 e1 e2 e3
              rintro e w5 ⟨rfl, h5⟩
              go_wp2_with fail
              go_roundw
              case rel => exact ⟨k + 1, by omega, by simp, _, _, _, _, _, _, _, _, h5⟩
              case measure => simp [intOf]; omega
          | true =>
            by_cases h5 : kind = 5
            · subst h5
              have hQp := hQd.plain
              have hQb : QuadT w L P0 R0 M0 X0 P1 R1 M1 X1 [nb wr.heap.size] (wr.drew.alloc (.cells #[.pointer none, .pointer none] 50)) := hQd.boxed
              go_wp2_with fail
              go_region_with (first | (go_at_call 20; refine hQp.copy1.mono ?_; rintro e w2 ⟨c, rfl, hH⟩; obtain ⟨⟨g0, g1, g2, g3⟩, _, _⟩ := hH.facts) | (go_at_call 20; refine hQb.copy1.mono ?_; rintro e w2 ⟨c, rfl, hH⟩; obtain ⟨⟨g0, g1, g2, g3⟩, _, _⟩ := hH.facts) | (go_at_call 22; refine hH.copy1.mono ?_; rintro e w3 ⟨c', rfl, hE⟩; obtain ⟨o0, o1, o2, o3, oL⟩ := hE.box _) | (go_at_call 22; refine hH.copy1.mono ?_; rintro e w3 ⟨c', rfl, hE⟩) | (go_at_call 22; refine hH.boxed.copy1.mono ?_; rintro e w3 ⟨c', rfl, hE⟩; obtain ⟨o0, o1, o2, o3, oL⟩ := hE.box _))
              all_goals
                obtain ⟨⟨r0, r1, r2, r3⟩, ⟨j0, j1, j2, j3⟩, hL3⟩ := hE.plain.facts
                first
                | have hQ3 := (hE.fill _ (pt c) (pt c')).set0
                  have oL2 : ¬ _ = L := fun e => oL e.symm
                | have hQ3 := hE.plain.set0.below ((Below.refl _ _).alloc (Nat.le_refl _) (.cells #[pt c, pt c'] 50))
                clear hQ hQd hQp hQb hH hE g0 g1 g2 g3 d0 d1 d2 d3 f0 f1 f2 f3
                obtain ⟨⟨e0, e1, e2, e3⟩, _, _⟩ := hQ3.facts
                replace e0 : Hid _ := e0
                replace e1 : Hid _ := e1
                replace e2 : Hid _ := e2
                replace e3 : Hid _ := e3
                go_wp2_with fail
                refine hQ3.tells0.mono ?_
                clear hQ3 e0 e1 e2 e3
                rintro e w4 ⟨rfl, h4⟩
                obtain ⟨⟨e0, e1, e2, e3⟩, _, _⟩ := h4.facts
                go_wp2_with fail
                refine h4.tells1.mono ?_
                clear h4 e0 e1 e2 e3
                rintro e w5 ⟨rfl, h5⟩
                go_wp2_with fail
                go_roundw
                case rel => exact ⟨k + 1, by omega, by simp, _, _, _, _, _, _, _, _, h5⟩
                case measure => simp [intOf]; omega
            by_cases h6 : kind = 6
            · subst h6
              clear h5
              by_cases hm : 0 ≤ m ∧ m ≤ 65536
              · obtain ⟨m', rfl⟩ : ∃ m' : Nat, m = (m' : Int) := ⟨m.toNat, by omega⟩
                have hm' : m' ≤ 65536 := by omega
                clear hm
                go_wp2_with fail
                refine (hQ.made m' hm').mono ?_
                rintro e w3 ⟨c, c', rfl, hE⟩
                obtain ⟨⟨r0, r1, r2, r3⟩, ⟨j0, j1, j2, j3⟩, hL3⟩ := hE.facts
                have hQ3 := hE.set1.below ((Below.refl _ _).alloc (Nat.le_refl _) (.cells #[pt c, pt c'] 50))
                clear hQ hQd hE d0 d1 d2 d3 f0 f1 f2 f3
                obtain ⟨⟨e0, e1, e2, e3⟩, _, _⟩ := hQ3.facts
                replace e0 : Hid _ := e0
                replace e1 : Hid _ := e1
                replace e2 : Hid _ := e2
                replace e3 : Hid _ := e3
                go_wp2_with fail
                refine hQ3.tells0.mono ?_
                clear hQ3 e0 e1 e2 e3
                rintro e w4 ⟨rfl, h4⟩
                obtain ⟨⟨e0, e1, e2, e3⟩, _, _⟩ := h4.facts
                go_wp2_with fail
                refine h4.tells1.mono ?_
                clear h4 e0 e1 e2 e3
                rintro e w5 ⟨rfl, h5⟩
                go_wp2_with fail
                go_roundw
                case rel => exact ⟨k + 1, by omega, by simp, _, _, _, _, _, _, _, _, h5⟩
                case measure => simp [intOf]; omega
              · go_wp2_with fail
                refine (hQ.unmade m hm).mono ?_
                clear hm
                rintro e w3 ⟨rfl, hE⟩
                have hQ3 := (hE.below ((Below.refl _ w3).alloc (Nat.le_refl _) (.cells #[.pointer none, .pointer none] 50)))
                clear hQ hQd d0 d1 d2 d3 f0 f1 f2 f3
                obtain ⟨⟨e0, e1, e2, e3⟩, _, hL3⟩ := hE.facts
                go_wp2_with fail
                refine hQ3.tells0.mono ?_
                clear hQ3 hE e0 e1 e2 e3
                rintro e w4 ⟨rfl, h4⟩
                obtain ⟨⟨e0, e1, e2, e3⟩, _, _⟩ := h4.facts
                go_wp2_with fail
                refine h4.tells1.mono ?_
                clear h4 e0 e1 e2 e3
                rintro e w5 ⟨rfl, h5⟩
                go_wp2_with fail
                go_roundw
                case rel => exact ⟨k + 1, by omega, by simp, _, _, _, _, _, _, _, _, h5⟩
                case measure => simp [intOf]; omega
            have b5 : (kind == 5) = false := beq_eq_false_iff_ne.2 h5
            have b6 : (kind == 6) = false := beq_eq_false_iff_ne.2 h6
            clear h5 h6
            go_wp2_with fail
            go_region_with (first | (go_at_call 23; refine (hQd.plays1 kind true n x m hsz).mono ?_; rintro e w3 ⟨rfl, mx', es', hE⟩))
            all_goals
              have hQ3 := hE
              clear hQ hQd d0 d1 d2 d3 f0 f1 f2 f3
              obtain ⟨⟨e0, e1, e2, e3⟩, _, _⟩ := hQ3.facts
              go_wp2_with fail
              refine hQ3.tells0.mono ?_
              clear hQ3 e0 e1 e2 e3
              rintro e w4 ⟨rfl, h4⟩
              obtain ⟨⟨e0, e1, e2, e3⟩, _, _⟩ := h4.facts
              go_wp2_with fail
              refine h4.tells1.mono ?_
              clear h4 e0 e1 e2 e3
              rintro e w5 ⟨rfl, h5⟩
              go_wp2_with fail
              go_roundw
              case rel => exact ⟨k + 1, by omega, by simp, _, _, _, _, _, _, _, _, h5⟩
              case measure => simp [intOf]; omega
        · obtain rfl : k = l.length := by omega
          go_wp2_with fail
          refine hQ.whole0.mono ?_
          clear hQ d0 d1 d2 d3 f0 f1 f2 f3
          rintro e w4 ⟨rfl, h4⟩
          obtain ⟨⟨e0, e1, e2, e3⟩, _, _⟩ := h4.facts
          go_wp2_with fail
          refine h4.whole1.mono ?_
          clear h4 e0 e1 e2 e3
          rintro e w5 ⟨rfl, h5⟩
          go_wp2_with fail
          go_ret
          exact ⟨rfl, h5.old⟩
    · refine (made_bad H3 two h2).mono ?_
      rintro e w3 ⟨rfl, H4⟩
      have H5 := H4.box #[.pointer none, .pointer none] 50
      obtain ⟨c80, c81, hk8⟩ := box2 (H4.get [] _ (.box k8 #[pt bp0, pt br0] 50) rfl)
      have hB := H5.2.2
      clear H5 H4 H3 h2 HR
      go_wp2_with fail
      go_ret
      exact ⟨rfl, hB⟩
  · refine (made_bad H1 one h1).mono ?_
    rintro e w2 ⟨rfl, H2⟩
    have H3 := H2.box #[.pointer none, .pointer none] 50
    clear H2 H1 h1
    go_wp2_with fail
    generalize w2.heap.size = k8 at H3 ⊢
    by_cases h2 : 0 ≤ two ∧ two ≤ 65536
    · obtain ⟨m2, rfl⟩ : ∃ m2 : Nat, two = (m2 : Int) := ⟨two.toNat, by omega⟩
      have h2' : m2 ≤ 65536 := by omega
      refine (made_good H3 m2 h2').mono ?_
      clear h2
      rintro e w3 ⟨bp1, br1, rfl, H4⟩
      have H5 := H4.box #[pt bp1, pt br1] 50
      obtain ⟨c80, c81, hk8⟩ := box2 (H4.get [_, _] _ (.box k8 #[.pointer none, .pointer none] 50) rfl)
      have hB := H5.2.2
      clear H5 H4 H3 HR
      go_wp2_with fail
      go_ret
      exact ⟨rfl, hB⟩
    · refine (made_bad H3 two h2).mono ?_
      rintro e w3 ⟨rfl, H4⟩
      have H5 := H4.box #[.pointer none, .pointer none] 50
      obtain ⟨c80, c81, hk8⟩ := box2 (H4.get [] _ (.box k8 #[.pointer none, .pointer none] 50) rfl)
      have hB := H5.2.2
      clear H5 H4 H3 h2 HR
      go_wp2_with fail
      go_ret
      exact ⟨rfl, hB⟩

end Go.Proofs.Ytlfbnhdcgldopaa
