/- StateBook. -/
import Derived.Test.YtmflgoghlbmkeaaB3
import Derived.Test.YtmflgoghlbmkeaaC4
import Derived.Deep.CutRange
import Derived.Deep.RegionWith
namespace Go.Proofs.Ytmflgoghlbmkeaa
open Go.RowKit
set_option linter.unusedVariables false
set_option linter.unusedSimpArgs false

theorem Hid.mk' {p : Prop} (h : p) : Hid p := h
theorem bk_cells {w : World} {g : Nat} {p q r t : Bool} (h : w.heap[g]? = some (.cells #[.bool p, .bool q, .bool r, .bool t] 38)) : w.cell? ⟨g, 0, none⟩ = some (.bool p) ∧ w.cell? ⟨g, 1, none⟩ = some (.bool q) ∧ w.cell? ⟨g, 2, none⟩ = some (.bool r) ∧ w.cell? ⟨g, 3, none⟩ = some (.bool t) :=
  ⟨cell_blk h 0, cell_blk h 1, cell_blk h 2, cell_blk h 3⟩
theorem state_is {p q r t : Bool} {n : Int} (h : n = Bk.state ⟨p, q, r, t⟩) (W : World) : Calls Try.prog 17 #[.agg #[.bool p, .bool q, .bool r, .bool t]] W fun e w' => e = .returned (.int .i64 n) ∧ Below W.heap.size W w' := by
  subst h
  exact state_any ⟨p, q, r, t⟩ W
theorem over_is {p q r t ov : Bool} (h : Bk.over ⟨p, q, r, t⟩ = ov) (W : World) : Calls Try.prog 18 #[.agg #[.bool p, .bool q, .bool r, .bool t]] W fun e w' => e = .returned (.bool ov) ∧ Below W.heap.size W w' := by
  subst h
  exact over_any ⟨p, q, r, t⟩ W
theorem counts_is {n : Int} {cn : Bool} (h : ct n = cn) (W : World) : Calls Try.prog 13 #[.int .i64 n] W fun e w' => e = .returned (.bool cn) ∧ w' = W := by
  subst h
  exact counts_any n W
theorem set1 {w W : World} {g i : Nat} {x : Value} (h : Below w.heap.size w W) (hg : w.heap.size ≤ g) : Below w.heap.size w (W.setCell ⟨g, i, none⟩ x) :=
  h.trans ⟨rfl, rfl, rfl, by simp [World.setCell], fun i hi => setCell_other _ _ _ _ _ (by omega)⟩
theorem set4 {w W : World} {g : Nat} {a b c d : Value} {t : TypeId} (h : W.heap[g]? = some (.cells #[a, b, c, d] t)) (hB : Below w.heap.size w W) (hg : w.heap.size ≤ g) (x y z u : Value) :
    ((((W.setCell ⟨g, 0, none⟩ x).setCell ⟨g, 1, none⟩ y).setCell ⟨g, 2, none⟩ z).setCell ⟨g, 3, none⟩ u).heap[g]? = some (.cells #[x, y, z, u] t) ∧ Below w.heap.size w ((((W.setCell ⟨g, 0, none⟩ x).setCell ⟨g, 1, none⟩ y).setCell ⟨g, 2, none⟩ z).setCell ⟨g, 3, none⟩ u) := by
  refine ⟨setCell_block _ _ 3 u _ _ _ (setCell_block _ _ 2 z _ _ _ (setCell_block _ _ 1 y _ _ _ (setCell_block _ _ 0 x _ _ _ h))), ?_⟩
  exact set1 (set1 (set1 (set1 hB hg) hg) hg) hg
theorem bstep4 {a b c d e : Prop} (h : a ∧ b ∧ c ∧ d ∧ e) : e := h.2.2.2.2
theorem bstep6 {a b c d x y e : Prop} (h : a ∧ b ∧ c ∧ d ∧ x ∧ y ∧ e) : e := h.2.2.2.2.2.2

set_option maxRecDepth 100000 in
set_option maxHeartbeats 16000000 in
theorem book_walk (pv : Value) (os : List OP) (w : World) (hv : In EO w pv os) :
    Calls Try.prog 7 #[pv] w fun e w' => e = .returned (.bool true) ∧ Below w.heap.size w w' := by
  have HV : Hid (In EO w pv os) := hv
  obtain ⟨vb, vc, rfl, hc1, hc2⟩ := hv.slice
  obtain ⟨m, hm⟩ : ∃ m, os.length = m := ⟨_, rfl⟩
  rw [hm] at hc1 HV ⊢
  have HN : Hid (os.length = m) := hm
  clear hm hv
  go_enter Try.func7, Try.ntmps7
  go_wp2_with fail
  refine (head_any w).mono ?_
  rintro e w0 ⟨rfl, hB0⟩
  obtain ⟨b0, hb0⟩ : ∃ b0, w0.heap.size = b0 := ⟨_, rfl⟩
  have HB0 : Hid (w.heap.size ≤ b0) := hb0 ▸ hB0.size
  have H0 : Hid ((w0.alloc (.cells #[.bool false, .bool false, .bool false, .bool false] 38)).heap[b0]? = some (.cells #[.bool false, .bool false, .bool false, .bool false] 38)) := hb0 ▸ heap_alloc_new w0 _
  go_wp2_with fail
  go_loopw [4, 5] (fun sv i wr => ∃ k : Nat, k ≤ m ∧ i = .int .i64 (k : Int) ∧ ∃ (p q r t : Bool) (x : Int), sv = .int .i64 x ∧ x = Bk.state ⟨p, q, r, t⟩ ∧ Bk.ok ⟨p, q, r, t⟩ ∧ wr.heap[b0]? = some (.cells #[.bool p, .bool q, .bool r, .bool t] 38) ∧ Below w.heap.size w wr) (fun _ i _ => m - (intOf i).toNat)
  case atStart => exact ⟨0, Nat.zero_le _, rfl, false, false, false, false, _, rfl, rfl, ⟨fun _ => ⟨rfl, rfl, rfl⟩, fun _ h => (by cases h)⟩, H0.out, balloc hB0 _⟩
  case round =>
    obtain ⟨k, hk, rfl, p, q, r, t, x, rfl, hx, hok, hg, hB⟩ := hrel
    clear hB0 H0 hb0
    have HOK : Hid (Bk.ok ⟨p, q, r, t⟩) := hok
    have HX : Hid (x = Bk.state ⟨p, q, r, t⟩) := hx
    have HG : Hid (wr.heap[b0]? = some (.cells #[.bool p, .bool q, .bool r, .bool t] 38)) := hg
    clear hok hx hg
    by_cases hlt : k < m
    · have hlen := HN.out
      obtain ⟨B, off, cap, hvb, hBl, d0, d1⟩ := HV.out.op k (by omega)
      injection hvb with e1 e2 e3
      subst e1
      clear e2 e3
      obtain ⟨g, kd, hq⟩ : ∃ g kd, os[k]'(by omega) = (g, kd) := ⟨_, _, rfl⟩
      rw [hq] at d0 d1
      simp only at d0 d1
      have HD0 : Hid (w.cell? ⟨B, off + k * 2, none⟩ = some (.bool g)) := d0
      have HD1 : Hid (w.cell? ⟨B, off + k * 2 + 1, none⟩ = some (.int .i64 kd)) := d1
      replace d0 := (hB.cell hBl).trans d0
      replace d1 := (hB.cell hBl).trans d1
      have hBw : B < wr.heap.size := Nat.lt_of_lt_of_le hBl hB.size
      have hlti : (k : Int) < (m : Int) := by omega
      clear hlen hq
      obtain ⟨n, v, c, hnx⟩ : ∃ n v c, nx x g kd = (n, v, c) := ⟨_, _, _, rfl⟩
      have HF : Hid (_ ∧ _ ∧ _ ∧ _) := book_fact ⟨p, q, r, t⟩ g kd n v c (HX.out ▸ hnx) HOK.out
      go_wp2_with fail
      refine (next_eq x g kd n v c hnx _).mono ?_
      rintro e w4 ⟨rfl, hB2⟩
      have HG4 : Hid (w4.heap[b0]? = some (.cells #[.bool p, .bool q, .bool r, .bool t] 38)) := (hB2.block b0 (heap_lt HG.out)).trans HG.out
      replace hB := bstep hB hB2
      clear hB2 d0 d1 hBw hnx HX HG
      have d0 := (hB.cell hBl).trans HD0.out
      have d1 := (hB.cell hBl).trans HD1.out
      have hBw : B < w4.heap.size := Nat.lt_of_lt_of_le hBl hB.size
      obtain ⟨c0, c1, c2, c3⟩ := bk_cells HG4.out
      have hb4 : b0 < w4.heap.size := heap_lt HG4.out
      obtain ⟨fn, hfn⟩ : ∃ fn, Bk.fine ⟨p, q, r, t⟩ g kd = fn := ⟨_, rfl⟩
      have HFN : Hid (∀ W, Calls Try.prog 15 #[.agg #[.bool p, .bool q, .bool r, .bool t], .agg #[.bool g, .int .i64 kd]] W fun e w' => e = .returned (.bool fn) ∧ Below W.heap.size W w') := fun W => by
        have := fine_any ⟨p, q, r, t⟩ g kd W
        rw [hfn] at this
        exact this
      rw [hfn] at HF
      clear hfn
      go_upto_region 9 with fail
      go_cut [9] from 13 to 70 (fun a wx => a = .bool fn ∧ Below w4.heap.size w4 wx)
      case first =>
        have held : Hid (∀ W, Below w4.heap.size w4 W → W.cell? ⟨b0, 0, none⟩ = some (.bool p) ∧ W.cell? ⟨b0, 1, none⟩ = some (.bool q) ∧ W.cell? ⟨b0, 2, none⟩ = some (.bool r) ∧ W.cell? ⟨b0, 3, none⟩ = some (.bool t) ∧ W.cell? ⟨B, off + k * 2, none⟩ = some (.bool g) ∧ W.cell? ⟨B, off + k * 2 + 1, none⟩ = some (.int .i64 kd) ∧ Below w4.heap.size w4 W) := fun W h => ⟨(h.cell hb4).trans c0, (h.cell hb4).trans c1, (h.cell hb4).trans c2, (h.cell hb4).trans c3, (h.cell hBw).trans d0, (h.cell hBw).trans d1, h⟩
        go_region_held3 (fun W => W.cell? ⟨b0, 0, none⟩ = some (.bool p) ∧ W.cell? ⟨b0, 1, none⟩ = some (.bool q) ∧ W.cell? ⟨b0, 2, none⟩ = some (.bool r) ∧ W.cell? ⟨b0, 3, none⟩ = some (.bool t) ∧ W.cell? ⟨B, off + k * 2, none⟩ = some (.bool g) ∧ W.cell? ⟨B, off + k * 2 + 1, none⟩ = some (.int .i64 kd) ∧ Below w4.heap.size w4 W) (first | exact held.out _ (Below.refl _ _).drew | exact held.out _ (bstep (bstep6 (by assumption)) (by assumption))) (first | (go_at_call 15; refine (HFN.out _).mono ?_; rintro e w5 ⟨rfl, hB5⟩))
        all_goals
          rename_i hS
          go_wp2_with fail
          go_meet
          exact ⟨rfl, bstep6 hS⟩
      case rest =>
        obtain ⟨rfl, hB5⟩ := hcut
        clear c0 c1 c2 c3 d0 d1 hBw hb4 HFN
        have HG5 : Hid (wc.heap[b0]? = some (.cells #[.bool p, .bool q, .bool r, .bool t] 38)) := (hB5.block b0 (heap_lt HG4.out)).trans HG4.out
        replace hB := bstep hB hB5
        clear hB5 HG4
        have d0 := (hB.cell hBl).trans HD0.out
        have d1 := (hB.cell hBl).trans HD1.out
        have hBw : B < wc.heap.size := Nat.lt_of_lt_of_le hBl hB.size
        cases fn
        · obtain ⟨hv, _, _, hF⟩ := HF.out
          obtain ⟨hn, hc⟩ := hF rfl
          clear HF hF
          have HZ := HG5
          have HBZ := Hid.mk' hB
          have HOKK := HOK
          have HC := Hid.mk' hc
          have HNN := Hid.mk' hn
          have HK := Hid.mk' hB
          have hv1 : (v == 0) = false := hv
          clear hc hn hv HG5 hB
          obtain ⟨z0, z1, z2, z3⟩ := bk_cells HZ.out
          obtain ⟨ov, hov⟩ : ∃ ov, Bk.over ⟨p, q, r, t⟩ = ov := ⟨_, rfl⟩
          obtain ⟨cn, hcn⟩ : ∃ cn, ct n = cn := ⟨_, rfl⟩
          have HC2 : Hid (cn = (q && !ov)) := by
            have := HC.out
            rw [hcn, hov] at this
            exact this
          have HST : Hid (∀ W, Calls Try.prog 17 #[.agg #[.bool p, .bool q, .bool r, .bool t]] W fun e w' => e = .returned (.int .i64 n) ∧ Below W.heap.size W w') := fun W => state_is HNN.out W
          have HCT : Hid (∀ W, Calls Try.prog 13 #[.int .i64 n] W fun e w' => e = .returned (.bool cn) ∧ w' = W) := fun W => counts_is hcn W
          have HOV : Hid (∀ W, Calls Try.prog 18 #[.agg #[.bool p, .bool q, .bool r, .bool t]] W fun e w' => e = .returned (.bool ov) ∧ Below W.heap.size W w') := fun W => over_is hov W
          clear hov hcn HC
          go_upto_region 14 with fail
          go_cut [69] from 13 to 70 (fun a wx => a = .bool false ∧ Below wc.heap.size wc wx)
          case first =>
            have heldz : Hid (∀ W, Below wc.heap.size wc W → W.cell? ⟨b0, 0, none⟩ = some (.bool p) ∧ W.cell? ⟨b0, 1, none⟩ = some (.bool q) ∧ W.cell? ⟨b0, 2, none⟩ = some (.bool r) ∧ W.cell? ⟨b0, 3, none⟩ = some (.bool t) ∧ Below wc.heap.size wc W) := fun W h => ⟨(h.cell (heap_lt HZ.out)).trans z0, (h.cell (heap_lt HZ.out)).trans z1, (h.cell (heap_lt HZ.out)).trans z2, (h.cell (heap_lt HZ.out)).trans z3, h⟩
            clear HK
            cases q
            · have hcc : cn = false := HC2.out
              subst hcc
              clear HC2
              go_region_with (first | (go_at_call 17; refine (HST.out _).mono ?_; rintro e w7 ⟨rfl, hB7⟩; have q7 := (hB7.block b0 (heap_lt HZ.out)).trans HZ.out; obtain ⟨y0, y1, y2, y3⟩ := bk_cells q7) | (go_at_call 13; refine (HCT.out _).mono ?_; rintro e w8 ⟨rfl, rfl⟩))
              all_goals
                go_wp2_with fail
                go_meet
                exact ⟨rfl, ((Below.refl _ wc).drew).trans (hB7.mono (Nat.le_refl _))⟩
            · have hcc : cn = !ov := HC2.out
              subst hcc
              clear HC2
              cases ov
              all_goals
                go_region_held3 (fun W => W.cell? ⟨b0, 0, none⟩ = some (.bool p) ∧ W.cell? ⟨b0, 1, none⟩ = some (.bool true) ∧ W.cell? ⟨b0, 2, none⟩ = some (.bool r) ∧ W.cell? ⟨b0, 3, none⟩ = some (.bool t) ∧ Below wc.heap.size wc W) (first | exact heldz.out _ (Below.refl _ _).drew | exact heldz.out _ (bstep (bstep4 (by assumption)) (by assumption)) | assumption) (first | (go_at_call 17; refine (HST.out _).mono ?_; rintro e w7 ⟨rfl, hB7⟩) | (go_at_call 13; refine (HCT.out _).mono ?_; rintro e w7 ⟨rfl, rfl⟩) | (go_at_call 18; refine (HOV.out _).mono ?_; rintro e w7 ⟨rfl, hB7⟩))
                all_goals
                  rename_i hS
                  go_wp2_with fail
                  go_meet
                  exact ⟨rfl, bstep4 hS⟩
          case rest =>
            obtain ⟨rfl, hB6⟩ := hcut
            clear z0 z1 z2 z3 HST HCT HOV HC2 d0 d1
            have HK3 := And.intro ((hB6.block b0 (heap_lt HZ.out)).trans HZ.out) (bstep HBZ.out hB6)
            have HK2 : Hid (_ ∧ _) := HK3
            clear HK3 hB6
            go_wp2_with fail
            go_roundw
            case rel => exact ⟨k + 1, by omega, by simp, p, q, r, t, _, rfl, HNN.out, HOKK.out, HK2.out.1, HK2.out.2⟩
            case measure => simp [intOf]; omega
        · obtain ⟨hv, hv2, hF, _⟩ := HF.out
          have hv0 : v = 0 := by simpa using hv
          subst hv0
          have hc0 := hv2 rfl
          subst hc0
          obtain ⟨hn, hc, hok2⟩ := hF rfl
          clear HF hv hv2 hF
          obtain ⟨p2, q2, r2, t2, hb2⟩ : ∃ p2 q2 r2 t2, Bk.behind ⟨p, q, r, t⟩ g kd = ⟨p2, q2, r2, t2⟩ := ⟨_, _, _, _, rfl⟩
          rw [hb2] at hn hc hok2
          have HBH : Hid (∀ W, Calls Try.prog 16 #[.agg #[.bool p, .bool q, .bool r, .bool t], .agg #[.bool g, .int .i64 kd]] W fun e w' => e = .returned (.agg #[.bool p2, .bool q2, .bool r2, .bool t2]) ∧ Below W.heap.size W w') := fun W => by
            have := behind_any ⟨p, q, r, t⟩ g kd W
            rw [hb2] at this
            exact this
          have HOKK : Hid (Bk.ok ⟨p2, q2, r2, t2⟩) := hok2
          have HC := Hid.mk' hc
          have HNN := Hid.mk' hn
          have HB := Hid.mk' hB
          clear hc hn hok2 hb2 hB
          obtain ⟨c0, c1, c2, c3⟩ := bk_cells HG5.out
          have hb4 : b0 < wc.heap.size := heap_lt HG5.out
          go_upto_region 13 with fail
          go_cut [] from 13 to 70 (fun wx => wx.heap[b0]? = some (.cells #[.bool p2, .bool q2, .bool r2, .bool t2] 38) ∧ Below w.heap.size w wx)
          case first =>
            go_region_with (go_at_call 16; refine (HBH.out _).mono ?_; rintro e w5 ⟨rfl, hB5⟩; have q5 := (hB5.block b0 (by first | exact heap_lt HG5.out | exact heap_lt HG5.out)).trans HG5.out; obtain ⟨s0, s1, s2, s3⟩ := bk_cells q5; have g0 := frozen_blk q5 0; have g1 := frozen_blk q5 1; have g2 := frozen_blk q5 2; have g3 := frozen_blk q5 3)
            all_goals
              have hz4 := set4 q5 (bstep HB.out.drew hB5) HB0.out (.bool p2) (.bool q2) (.bool r2) (.bool t2)
              have HZ4 := Hid.mk' hz4
              clear hz4 s0 s1 s2 s3 g0 g1 g2 g3 q5 hB5
              go_wp2_with fail
              go_meet
              exact HZ4.out
          case rest =>
            obtain ⟨hz0, hbz⟩ := hcut
            have HZ := Hid.mk' hz0
            have HBZ := Hid.mk' hbz
            have HK := Hid.mk' hbz
            clear hz0 hbz HG5 HB HBH c0 c1 c2 c3 hb4 d0 d1 hBw
            have d0 : True := trivial
            have d1 : True := trivial
            obtain ⟨z0, z1, z2, z3⟩ := bk_cells HZ.out
            obtain ⟨ov, hov⟩ : ∃ ov, Bk.over ⟨p2, q2, r2, t2⟩ = ov := ⟨_, rfl⟩
            obtain ⟨cn, hcn⟩ : ∃ cn, ct n = cn := ⟨_, rfl⟩
            have HC2 : Hid (cn = (q2 && !ov)) := by
              have := HC.out
              rw [hcn, hov] at this
              exact this
            have HST : Hid (∀ W, Calls Try.prog 17 #[.agg #[.bool p2, .bool q2, .bool r2, .bool t2]] W fun e w' => e = .returned (.int .i64 n) ∧ Below W.heap.size W w') := fun W => state_is HNN.out W
            have HCT : Hid (∀ W, Calls Try.prog 13 #[.int .i64 n] W fun e w' => e = .returned (.bool cn) ∧ w' = W) := fun W => counts_is hcn W
            have HOV : Hid (∀ W, Calls Try.prog 18 #[.agg #[.bool p2, .bool q2, .bool r2, .bool t2]] W fun e w' => e = .returned (.bool ov) ∧ Below W.heap.size W w') := fun W => over_is hov W
            clear hov hcn HC
            go_upto_region 14 with fail
            go_cut [69] from 13 to 70 (fun a wx => a = .bool false ∧ Below wc.heap.size wc wx)
            case first =>
              have heldz : Hid (∀ W, Below wc.heap.size wc W → W.cell? ⟨b0, 0, none⟩ = some (.bool p2) ∧ W.cell? ⟨b0, 1, none⟩ = some (.bool q2) ∧ W.cell? ⟨b0, 2, none⟩ = some (.bool r2) ∧ W.cell? ⟨b0, 3, none⟩ = some (.bool t2) ∧ Below wc.heap.size wc W) := fun W h => ⟨(h.cell (heap_lt HZ.out)).trans z0, (h.cell (heap_lt HZ.out)).trans z1, (h.cell (heap_lt HZ.out)).trans z2, (h.cell (heap_lt HZ.out)).trans z3, h⟩
              clear HK
              cases q2
              · have hcc : cn = false := HC2.out
                subst hcc
                clear HC2
                go_region_with (first | (go_at_call 17; refine (HST.out _).mono ?_; rintro e w7 ⟨rfl, hB7⟩; have q7 := (hB7.block b0 (heap_lt HZ.out)).trans HZ.out; obtain ⟨y0, y1, y2, y3⟩ := bk_cells q7) | (go_at_call 13; refine (HCT.out _).mono ?_; rintro e w8 ⟨rfl, rfl⟩))
                all_goals
                  go_wp2_with fail
                  go_meet
                  exact ⟨rfl, ((Below.refl _ wc).drew).trans (hB7.mono (Nat.le_refl _))⟩
              · have hcc : cn = !ov := HC2.out
                subst hcc
                clear HC2
                cases ov
                all_goals
                  go_region_held3 (fun W => W.cell? ⟨b0, 0, none⟩ = some (.bool p2) ∧ W.cell? ⟨b0, 1, none⟩ = some (.bool true) ∧ W.cell? ⟨b0, 2, none⟩ = some (.bool r2) ∧ W.cell? ⟨b0, 3, none⟩ = some (.bool t2) ∧ Below wc.heap.size wc W) (first | exact heldz.out _ (Below.refl _ _).drew | exact heldz.out _ (bstep (bstep4 (by assumption)) (by assumption)) | assumption) (first | (go_at_call 17; refine (HST.out _).mono ?_; rintro e w7 ⟨rfl, hB7⟩) | (go_at_call 13; refine (HCT.out _).mono ?_; rintro e w7 ⟨rfl, rfl⟩) | (go_at_call 18; refine (HOV.out _).mono ?_; rintro e w7 ⟨rfl, hB7⟩))
                  all_goals
                    rename_i hS
                    go_wp2_with fail
                    go_meet
                    exact ⟨rfl, bstep4 hS⟩
            case rest =>
              obtain ⟨rfl, hB6⟩ := hcut
              clear z0 z1 z2 z3 HST HCT HOV HC2 d0 d1
              have HK3 := And.intro ((hB6.block b0 (heap_lt HZ.out)).trans HZ.out) (bstep HBZ.out hB6)
              have HK2 : Hid (_ ∧ _) := HK3
              clear HK3 hB6
              go_wp2_with fail
              go_roundw
              case rel => exact ⟨k + 1, by omega, by simp, p2, q2, r2, t2, _, rfl, HNN.out, HOKK.out, HK2.out.1, HK2.out.2⟩
              case measure => simp [intOf]; omega
    · have hlti : ¬ (k : Int) < (m : Int) := by omega
      go_wp2
      go_ret
      exact ⟨rfl, hB⟩
end Go.Proofs.Ytmflgoghlbmkeaa
