/- The law's book: what went. -/
import Derived.Test.YtfponcdhaefkdaaDoorVg
namespace Go.Proofs.YtfponcdhaefkdaaDoor
open Go.RowKit
set_option linter.unusedVariables false
set_option linter.unusedSimpArgs false
/-- what has gone so far -/
structure Wn (W wr : World) (b g : Nat) (me mb lf : Int) (z z' : SV) (B' : List Kn) (now : Int) (gs : SV) (D : List Int) : Prop where
  bk : Bk wr b g me mb lf z' B' now
  gone : R EI wr (sv gs) D
  ks : Ks (fun k => k = b) W wr
  own : ∀ k, (sv z').ownBlock = some k → (sv z).ownBlock = some k ∨ W.heap.size ≤ k
theorem Wn.below {W wr V : World} {b g : Nat} {me mb lf : Int} {z z' : SV} {B' : List Kn} {now : Int} {gs : SV} {D : List Int} (h : Wn W wr b g me mb lf z z' B' now gs D) (hb : Below wr.heap.size wr V) : Wn W V b g me mb lf z z' B' now gs D :=
  ⟨h.bk.below hb, h.gone.below hb, h.ks.bel hb, h.own⟩
theorem Wn.step {W wr V : World} {b g : Nat} {me mb lf : Int} {z z' z2 : SV} {B' B2 : List Kn} {now : Int} {gs : SV} {D : List Int} (h : Wn W wr b g me mb lf z z' B' now gs D) (hb : Below wr.heap.size wr V) (hR : R EK V (sv z2) B2) (hn : ∀ k, (sv z2).ownBlock = some k → wr.heap.size ≤ k) (hs : ∀ k ∈ B2, k ∈ B') : Wn W (V.setCell ⟨b, 5, none⟩ (sv z2)) b g me mb lf z z2 B2 now gs D := by
  have hbk := h.bk.below hb
  refine ⟨h.bk.setL (hb.block _ (heap_lt h.bk.blk)) hR (fun k hk => hbk.fl k (hs k hk)), (h.gone.below hb).stays fun k hk _ => setCell_other _ _ _ _ _ ?_, (h.ks.bel hb).trans (Ks.setCell (fun k => k = b) V b 5 _ rfl) (fun i _ hi => hi) (fun i _ hi => hi), fun k hk => .inr (Nat.le_trans h.ks.size (hn k hk))⟩
  obtain ⟨c, hc⟩ := (h.gone.below hb).ty k hk
  exact ty_ne hc hbk.blk (show (2 : TypeId) ≠ 58 by decide)
set_option maxHeartbeats 16000000 in
set_option maxRecDepth 100000 in
theorem went_any (W : World) (b g : Nat) (me mb lf : Int) (z : SV) (B : List Kn) (now : Int) (h : Bk W b g me mb lf z B now) (gs : SV) (n : Nat) (hn : n ≤ B.length) (D : List Int) (hD : D = (B.take n).map (·.st)) (hgs : R EI W (sv gs) D) (store : Bool) (hl : B.length ≤ 1000) (har : ∀ k ∈ B, 0 ≤ k.ar ∧ k.ar ≤ now) (hnow : now ≤ 9223372036854775807) (hlate : ∀ k ∈ B.take n, store = true ∨ lf < now - k.ar) (hrest : ∀ k ∈ B.drop n, ¬ lf < now - k.ar) :
    Calls Tryd.prog 21 #[.pointer (some ⟨b, 0, none⟩), sv gs, .bool store] W fun e W' => e = .returned (.bool true) ∧ ∃ z', Wn W W' b g me mb lf z z' (B.drop n) now gs D := by
  have H0 : Hid (Wn W W b g me mb lf z z (B.drop 0) now gs D) := ⟨h, hgs, Ks.refl _ _, fun k hk => .inl hk⟩
  have hDl : D.length = n := by rw [hD, List.length_map, List.length_take]; omega
  have HD : Hid (∀ i (hi : i < D.length) (hB : i < B.length), D[i] = B[i].st) := fun i hi hB => by
    have : D[i]? = some B[i].st := by rw [hD, List.getElem?_map, List.getElem?_take, if_pos (by omega), List.getElem?_eq_getElem hB]; rfl
    rw [List.getElem?_eq_getElem hi] at this
    exact Option.some.inj this
  have HDl : Hid (D.length = n) := hDl
  have HA : Hid (∀ k ∈ B, 0 ≤ k.ar ∧ k.ar ≤ now) := har
  have HL : Hid (∀ k ∈ B.take n, store = true ∨ lf < now - k.ar) := hlate
  have HR : Hid (∀ k ∈ B.drop n, ¬ lf < now - k.ar) := hrest
  have HN : Hid (n ≤ B.length ∧ B.length ≤ 1000) := ⟨hn, hl⟩
  obtain ⟨g1, g2, g3⟩ := gs
  have hg2 : g2 = n := by
    obtain ⟨_, _, e, _⟩ := hgs.slice
    simp only [sv] at e
    injection e with _ e
    rw [e, hDl]
  subst hg2
  simp only [sv] at H0 ⊢
  have hgc : g2 ≤ g3 ∧ g3 ≤ 9223372036854775807 := by
    obtain ⟨_, _, e, e1, e2⟩ := hgs.slice
    simp only [sv] at e
    injection e with _ e3 e4
    subst e4
    exact ⟨by omega, e2⟩
  have hbl : b < W.heap.size := heap_lt h.blk
  clear h hgs hDl hD har hlate hrest hn hl
  go_enter Tryd.func21, Tryd.ntmps21
  go_wp2_with fail
  go_loopw [7] (fun iv wr => ∃ (i : Nat) (z' : SV), iv = .int .i64 (i : Int) ∧ i ≤ g2 ∧ Hid (Wn W wr b g me mb lf z z' (B.drop i) now (g1, g2, g3) D)) (fun iv _ => g2 - (intOf iv).toNat)
  case atStart => exact ⟨0, z, rfl, by omega, H0.out⟩
  case round =>
    clear H0
    obtain ⟨i, ⟨z1, z2, z3⟩, rfl, hi, hW⟩ := hrel
    obtain ⟨c0, c1, c2, c3, c4, c5, c6, cf⟩ := hW.out.bk.cells
    simp only [sv] at c5
    have lb := heap_lt hW.out.bk.blk
    by_cases hlt : i < g2
    · have hiB : i < B.length := by have := HN.out; omega
      have hBd : B.drop i = B[i] :: B.drop (i + 1) := List.drop_eq_getElem_cons hiB
      obtain ⟨Bj, off, cap, e, hc⟩ := hW.out.gone.isIn.int i (by rw [HDl.out]; exact hlt)
      simp only [sv] at e
      injection e with e1 e2 e3
      clear e2 e3
      subst e1
      have cg := hc wr (Below.refl _ _)
      rw [HD.out i (by rw [HDl.out]; exact hlt) hiB] at cg
      obtain ⟨x, hx⟩ : ∃ x, B[i] = x := ⟨_, rfl⟩
      rw [hx] at cg hBd
      have hrow := hW.out.bk.row
      rw [hBd] at hrow
      have HIn : Hid (In EK wr (sv (z1, z2, z3)) (x :: B.drop (i + 1))) := hrow.isIn
      obtain ⟨Bj2, off2, cap2, e, hc2⟩ := hrow.isIn.kn 0 (by simp)
      simp only [sv] at e
      obtain ⟨d0, d1, _⟩ := hc2 wr (Below.refl _ _)
      simp only [List.getElem_cons_zero, Nat.zero_mul, Nat.add_zero] at d0 d1
      rw [e] at c5
      obtain ⟨m1, m2, m3⟩ := slice_len (show In EK wr (.slice z1 z2 z3) _ from hrow.isIn)
      injection e with e1 e2 e3
      rw [e1, e2, e3] at HIn hW
      obtain ⟨N, hN⟩ : ∃ N, (x :: B.drop (i + 1)).length = N := ⟨_, rfl⟩
      rw [e3] at m2 m3
      rw [hN] at c5 m2
      have hN1 : N = B.length - (i + 1) + 1 := by rw [← hN, List.length_cons, List.length_drop]
      rw [hN] at HIn hW
      have HPl : Hid (∀ V, Below wr.heap.size wr V → Calls Tryd.prog 43 #[.slice (some ⟨Bj2, off2, none⟩) N cap2, .int .i64 x.st] V fun e w' => e = .returned (.int .i64 0) ∧ w' = V) := fun V hV => by
        have := place_any (some ⟨Bj2, off2, none⟩, N, cap2) (x :: B.drop (i + 1)) x.st V (HIn.out.below hV)
        have e0 : plK (x :: B.drop (i + 1)) x.st = ((0 : Nat) : Int) := plK_some (k := 0) (by simp) rfl (fun j _ hj => by omega)
        rw [e0] at this
        exact this
      have HWo : Hid (∀ V, Below wr.heap.size wr V → Calls Tryd.prog 46 #[.slice (some ⟨Bj2, off2, none⟩) N cap2, .int .i64 0] V fun e w' => ∃ z : SV, e = .returned (sv z) ∧ R EK w' (sv z) (B.drop (i + 1)) ∧ (∀ k, (sv z).ownBlock = some k → V.heap.size ≤ k) ∧ Below V.heap.size V w') := fun V hV => by
        have := without_any (some ⟨Bj2, off2, none⟩, N, cap2) (x :: B.drop (i + 1)) 0 (by simp) (by rw [hN]; have := HN.out; omega) V (HIn.out.below hV)
        simp only [List.eraseIdx_cons_zero] at this
        exact this
      have HS : Hid (∀ k ∈ B.drop (i + 1), k ∈ B.drop i) := fun k hk => by rw [hBd]; simp [hk]
      have hxa := HA.out x (by rw [← hx]; exact List.getElem_mem _)
      have hxl := HL.out x (by rw [← hx]; exact List.mem_take_iff_getElem.2 ⟨i, by omega, rfl⟩)
      obtain ⟨d, hd⟩ : ∃ d : Int, now - x.ar = d := ⟨_, rfl⟩
      rw [hd] at hxl
      have hd1 : -9223372036854775808 ≤ d := by omega
      have hd2 : d ≤ 9223372036854775807 := by omega
      have l1 : (i : Int) < (g2 : Int) := by omega
      have n1 : (0 : Int) < (N : Int) := by omega
      obtain ⟨xs, hxs⟩ : ∃ s, x.st = s := ⟨_, rfl⟩
      obtain ⟨xa, hxa'⟩ : ∃ s, x.ar = s := ⟨_, rfl⟩
      rw [hxs] at cg HPl
      rw [hxa'] at d1 hd
      clear hc hc2 hBd hrow hN hN1 hx hxa d0 hxs hxa' e1 e2 e3 HIn cf c0 c1 c2 c4
      by_cases hlat : lf < d
      · clear hxl
        go_wp2_with fail
        go_quiet (first | (go_at_call 43; exact Calls.quiet_of_same (HPl.out _ (below_drewN (Below.refl _ _) _))))
        go_wp2_with fail
        go_quiet (fail)
        go_wp2_with fail
        go_at_call 46
        refine (HWo.out _ (below_drewN (Below.refl _ _) _)).mono ?_
        rintro e V ⟨⟨v1, v2, v3⟩, rfl, hR, hn, bV⟩
        have bV2 : Below wr.heap.size wr V := (below_drewN (Below.refl _ _) _).trans bV
        obtain ⟨e0, e1, e2, e3, e4, e5, e6, ef⟩ := (hW.out.bk.below bV2).cells
        have f5 := ef 5
        have hW2 := hW.out.step (z2 := (v1, v2, v3)) bV2 hR hn HS.out
        simp only [sv] at hW2 e5
        have HW2 : Hid (Wn W (V.setCell ⟨b, 5, none⟩ (.slice v1 v2 v3)) b g me mb lf z (v1, v2, v3) (B.drop (i + 1)) now (some ⟨Bj, off, none⟩, g2, g3) D) := hW2
        simp only [sv]
        clear hW2 hR hn bV bV2 e0 e1 e2 e3 e4 e6 ef hW HWo HPl c3 c5 c6 cg d1 HS
        go_wp2_with fail
        go_roundw
        case rel => exact ⟨i + 1, (v1, v2, v3), by simp, by omega, HW2.out⟩
        case measure => simp [intOf]; omega
      · have hst : store = true := hxl.resolve_right hlat
        subst hst
        clear hxl
        go_wp2_with fail
        go_quiet (first | (go_at_call 43; exact Calls.quiet_of_same (HPl.out _ (below_drewN (Below.refl _ _) _))))
        go_wp2_with fail
        go_quiet (fail)
        go_wp2_with fail
        go_at_call 46
        refine (HWo.out _ (below_drewN (Below.refl _ _) _)).mono ?_
        rintro e V ⟨⟨v1, v2, v3⟩, rfl, hR, hn, bV⟩
        have bV2 : Below wr.heap.size wr V := (below_drewN (Below.refl _ _) _).trans bV
        obtain ⟨e0, e1, e2, e3, e4, e5, e6, ef⟩ := (hW.out.bk.below bV2).cells
        have f5 := ef 5
        have hW2 := hW.out.step (z2 := (v1, v2, v3)) bV2 hR hn HS.out
        simp only [sv] at hW2 e5
        have HW2 : Hid (Wn W (V.setCell ⟨b, 5, none⟩ (.slice v1 v2 v3)) b g me mb lf z (v1, v2, v3) (B.drop (i + 1)) now (some ⟨Bj, off, none⟩, g2, g3) D) := hW2
        simp only [sv]
        clear hW2 hR hn bV bV2 e0 e1 e2 e3 e4 e6 ef hW HWo HPl c3 c5 c6 cg d1 HS
        go_wp2_with fail
        go_roundw
        case rel => exact ⟨i + 1, (v1, v2, v3), by simp, by omega, HW2.out⟩
        case measure => simp [intOf]; omega
    · have l1 : ¬ (i : Int) < (g2 : Int) := by omega
      obtain rfl : i = g2 := by omega
      have hrow := hW.out.bk.row
      obtain ⟨m1, m2, m3⟩ := slice_len (show In EK wr (.slice z1 z2 z3) _ from hrow.isIn)
      obtain ⟨N, hN⟩ : ∃ N, (B.drop i).length = N := ⟨_, rfl⟩
      rw [hN] at m1 m2
      subst m1
      have HNl : Hid ((B.drop i).length = z2) := hN
      have HIn : Hid (In EK wr (.slice z1 z2 z3) (B.drop i)) := hrow.isIn
      clear hN hrow cf c0 c1 c2 c4 hlt l1
      have l1 : ¬ (i : Int) < (i : Int) := by omega
      go_wp2_with fail
      go_loopw [10] (fun jv w2 => ∃ j : Nat, jv = .int .i64 (j : Int) ∧ j ≤ z2 ∧ Hid (Below wr.heap.size wr w2)) (fun jv _ => z2 - (intOf jv).toNat)
      case atStart => exact ⟨0, rfl, by omega, Below.refl _ _⟩
      case round =>
        obtain ⟨j, rfl, hj, hb⟩ := hrel
        clear c3 c5 c6
        obtain ⟨c0, c1, c2, c3, c4, c5, c6, cf⟩ := (hW.out.bk.below hb.out).cells
        simp only [sv] at c5
        clear c0 c1 c2 c4 cf
        by_cases hlt : j < z2
        · have hjl : j < (B.drop i).length := by rw [HNl.out]; exact hlt
          obtain ⟨Bj, off, cap, e, hc⟩ := HIn.out.kn j hjl
          injection e with e1 e2 e3
          clear e2 e3
          subst e1
          have d1 := (hc _ hb.out).2.1
          obtain ⟨x, hx⟩ : ∃ x, (B.drop i)[j] = x := ⟨_, rfl⟩
          rw [hx] at d1
          have hxm : x ∈ B.drop i := by rw [← hx]; exact List.getElem_mem _
          have hxa := HA.out x ((List.drop_sublist _ _).subset hxm)
          have hxr := HR.out x hxm
          obtain ⟨d, hd⟩ : ∃ d : Int, now - x.ar = d := ⟨_, rfl⟩
          rw [hd] at hxr
          have hd1 : -9223372036854775808 ≤ d := by omega
          have hd2 : d ≤ 9223372036854775807 := by omega
          have l2 : (j : Int) < (z2 : Int) := by omega
          have hxr' : ¬ lf < d := by omega
          obtain ⟨xa, hxa'⟩ : ∃ s, x.ar = s := ⟨_, rfl⟩
          rw [hxa'] at d1 hd
          clear hc hx hxm hxa hxa' hxr
          go_wp2_with fail
          go_quiet (fail)
          go_wp2_with fail
          go_roundw
          case rel => exact ⟨j + 1, by simp, by omega, below_drewN hb.out _⟩
          case measure => simp [intOf]; omega
        · have l2 : ¬ (j : Int) < (z2 : Int) := by omega
          have HE : Hid (Wn W _ b g me mb lf z (z1, z2, z3) (B.drop i) now (g1, i, g3) D) := hW.out.below hb.out
          clear hW hb
          go_wp2_with fail
          go_ret
          first | exact ⟨rfl, (z1, z2, z3), HE.out⟩ | exact ⟨rfl, z1, z2, z3, HE.out⟩
end Go.Proofs.YtfponcdhaefkdaaDoor
