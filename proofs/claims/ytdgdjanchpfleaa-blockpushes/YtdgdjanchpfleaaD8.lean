/- The document's Push. -/
import Derived.Test.YtdgdjanchpfleaaD7
import Derived.Deep.QuietTactic
import Derived.BigQuiet
namespace Go.Proofs.Ytdgdjanchpfleaa
open Go.RowKit
set_option linter.unusedVariables false
set_option linter.unusedSimpArgs false
set_option maxHeartbeats 8000000 in
set_option maxRecDepth 100000 in
theorem rpush_broken (w : World) (b : Nat) (base : Option Addr) (n cap : Nat) (L : List (Fr × SV)) (c : Int) (f : Fr) (x : SV) (hj : RB w b (.slice base n cap) c) (hr : R EF w (.slice base n cap) L) (hc : c ≠ 0) :
    Calls Try.prog 19 #[.pointer (some ⟨b, 0, none⟩), .agg (fv f (sv x))] w fun e w' => RPost w (.slice base n cap) b L c false Fr.zero (none, 0, 0) ⟨#[]⟩ e w' := by
  have hcb : (c == 0) = false := by simp [hc]
  have hfin : Hid (∀ X : World, Below w.heap.size w X → RuR w (.slice base n cap) X b L c) := fun X hX => ⟨⟨_, hj.below hX, hr.below hX, fun k hk => .inl hk⟩, Ks.of_below hX⟩
  have P0 : Hid _ := Rp.start f (sv x) hj hr
  have B0 : Hid _ := bel3 w (.cells (fv f (sv x)) 24) (.cells (fv Fr.zero (.slice none 0 0)) 24) (.cells #[.int .i64 0, .int .i64 0] 32)
  obtain ⟨xb, xl, xc⟩ := x
  simp only [sv] at P0 B0 ⊢
  rw [fv_zero] at P0 B0
  have hlt := hj.lt
  have hlt1 : b < w.heap.size + 1 := by omega
  have hlt2 : b < w.heap.size + 1 + 1 := by omega
  unfold fv at P0 B0 ⊢
  obtain ⟨k0, k1, k2⟩ := hj.cells
  obtain ⟨f0, f1, f2⟩ := hj.frozens
  clear hj hr P0
  go_enter Try.func19, Try.ntmps19
  go_upto_region 2 with fail
  go_region
  all_goals
    go_wp2_with fail
    refine bodyPost_ret (results_tctc (r := 4) (p := 5) (ty := 24) (q := 6) (s := 7) (tz := 32) rfl _ _ (w.heap.size + 1) (w.heap.size + 1 + 1) 24 32 (fv Fr.zero (.slice none 0 0)) #[.int .i64 c, .int .i64 0] (0, 0) (0, 0) _ _ rfl ?q1 Try.underlying24 rfl (by kernel_rfl) rfl ?q2 Try.underlying32 rfl (by kernel_rfl)) rfl ⟨rfl, hfin.out _ ?q3⟩
    case q1 =>
      simp only [heap_al, heap_dr, size_al, size_dr]
      repeat (first | rw [if_pos trivial] | rw [if_neg (by omega)] | rw [if_pos (by omega)])
      rfl
    case q2 =>
      simp only [heap_al, heap_dr, size_al, size_dr]
      repeat (first | rw [if_pos trivial] | rw [if_neg (by omega)] | rw [if_pos (by omega)])
    case q3 => (repeat (first | exact Below.refl _ _ | refine Below.drew ?_ | refine below_drewN ?_ _ | refine Below.alloc ?_ (by first | exact Nat.le_refl _ | (simp only [size_al, size_dr]; omega)) _))

set_option maxHeartbeats 8000000 in
set_option maxRecDepth 100000 in
theorem rpush_idle9 (w : World) (b : Nat) (base : Option Addr) (cap : Nat) (f : Fr) (x : SV) (hj : RB w b (.slice base 0 cap) 0) (hr : R EF w (.slice base 0 cap) []) (h9 : f.ty = 9) :
    Calls Try.prog 19 #[.pointer (some ⟨b, 0, none⟩), .agg (fv f (sv x))] w fun e w' => RPost w (.slice base 0 cap) b [] 1 false Fr.zero (none, 0, 0) ⟨#[]⟩ e w' := by
  have e9 : (f.ty == 9) = true := by simp [h9]
  have P0 : Hid _ := Rp.start f (sv x) hj hr
  have B0 : Hid _ := bel3 w (.cells (fv f (sv x)) 24) (.cells (fv Fr.zero (.slice none 0 0)) 24) (.cells #[.int .i64 0, .int .i64 0] 32)
  obtain ⟨xb, xl, xc⟩ := x
  simp only [sv] at P0 B0 ⊢
  rw [fv_zero] at P0 B0
  have hlt := hj.lt
  have hlt1 : b < w.heap.size + 1 := by omega
  have hlt2 : b < w.heap.size + 1 + 1 := by omega
  unfold fv at P0 B0 ⊢
  obtain ⟨k0, k1, k2⟩ := hj.cells
  obtain ⟨f0, f1, f2⟩ := hj.frozens
  have HJ : Hid _ := hj
  clear hj hr h9
  go_enter Try.func19, Try.ntmps19
  go_upto_region 3 with fail
  go_quiet (fail)
  all_goals
    go_wp2_with fail
    go_at_call 32
    refine (rbroken_any _ b _ _ 1 (P0.out.rb.below (by (repeat (first | exact Below.refl _ _ | refine Below.drew ?_ | refine below_drewN ?_ _ | refine Below.alloc ?_ (by first | exact Nat.le_refl _ | (simp only [size_al, size_dr]; omega)) _))))).mono ?_
    rintro e w1 ⟨rfl, hb1, hk1⟩
    have P1 := (P0.out.below (by (repeat (first | exact Below.refl _ _ | refine Below.drew ?_ | refine below_drewN ?_ _ | refine Below.alloc ?_ (by first | exact Nat.le_refl _ | (simp only [size_al, size_dr]; omega)) _)))).brk hb1 hk1
    obtain ⟨y0, y1, y2, y3, y4, y5, y6, y7, y8, y9, y10⟩ := P1.b2.cells
    obtain ⟨z0, z1, z2, z3, z4, z5, z6, z7, z8, z9, z10⟩ := P1.b2.frozens
    have t0 := cell_blk P1.b3 0
    have t1 := cell_blk P1.b3 1
    have t2 := frozen_blk P1.b3 0
    have t3 := frozen_blk P1.b3 1
    simp only [Fr.zero] at y0 y1 y2 y3 y4 y5 y6 y7 y8 y9 y10
    have ls := P1.size
    have ls1 : w.heap.size + 1 < w1.heap.size := by omega
    have hfin : Hid _ := P1.fin Fr.zero (none, 0, 0) _ rfl
    simp only [sets, fsets, sv, Fr.zero, List.foldl_cons, List.foldl_nil] at hfin
    clear P1 hb1 hk1
    unfold fv
    simp only [Fr.zero]
    go_wp2_with fail
    obtain ⟨g1, g2, g3⟩ := hfin.out
    refine bodyPost_ret (results_tctc (r := 4) (p := 5) (ty := 24) (q := 6) (s := 7) (tz := 32) rfl _ _ (w.heap.size + 1) (w.heap.size + 1 + 1) 24 32 (fv Fr.zero (.slice none 0 0)) #[.int .i64 1, .int .i64 0] (0, 0) (0, 0) _ _ rfl g1 Try.underlying24 rfl (by kernel_rfl) rfl g2 Try.underlying32 rfl (by kernel_rfl)) rfl ⟨rfl, g3⟩

set_option maxHeartbeats 8000000 in
set_option maxRecDepth 100000 in
theorem rpush_bad (w : World) (b : Nat) (g cap n : Nat) (X : Fr) (u : SV) (L : List (Fr × SV)) (f : Fr) (x : SV) (hj : RB w b (.slice (some ⟨g, 0, none⟩) (n + 1) cap) 0) (hr : R EF w (.slice (some ⟨g, 0, none⟩) (n + 1) cap) ((X, u) :: L)) (hbad : (f.ty == 9 && f.st == X.st) = false) :
    Calls Try.prog 19 #[.pointer (some ⟨b, 0, none⟩), .agg (fv f (sv x))] w fun e w' => RPost w (.slice (some ⟨g, 0, none⟩) (n + 1) cap) b [] 1 false Fr.zero (none, 0, 0) ⟨#[]⟩ e w' := by
  have hc2 : w.cell? ⟨g, 2, none⟩ = some (.int .i64 X.st) := by
    obtain ⟨g', c', e1, q1, q2, q3, q4, d, q5, q6⟩ := hr.setc okF 0 0 (by simp) (by decide)
    injection e1 with e1 e2 e3
    injection e1 with e1
    injection e1 with e1
    subst e1
    exact d 2 _ rfl
  have lg := hr.lt g rfl
  have lg1 : g < w.heap.size + 1 := by omega
  have lg2 : g < w.heap.size + 1 + 1 := by omega
  have hcap : n + 1 ≤ cap ∧ cap ≤ 9223372036854775807 := by have := R.slice hr; obtain ⟨b', c', e, q1, q2⟩ := this; injection e with e1 e2 e3; subst e3; simp at q1 e2; omega
  obtain ⟨hcap1, hcap2⟩ := hcap
  have P0 : Hid _ := Rp.start f (sv x) hj hr
  have B0 : Hid _ := bel3 w (.cells (fv f (sv x)) 24) (.cells (fv Fr.zero (.slice none 0 0)) 24) (.cells #[.int .i64 0, .int .i64 0] 32)
  obtain ⟨xb, xl, xc⟩ := x
  simp only [sv] at P0 B0 ⊢
  rw [fv_zero] at P0 B0
  have hlt := hj.lt
  have hlt1 : b < w.heap.size + 1 := by omega
  have hlt2 : b < w.heap.size + 1 + 1 := by omega
  unfold fv at P0 B0 ⊢
  obtain ⟨k0, k1, k2⟩ := hj.cells
  obtain ⟨f0, f1, f2⟩ := hj.frozens
  have HJ : Hid _ := hj
  clear hj hr
  by_cases h9 : f.ty = 9
  · have e9 : (f.ty != 9) = false := by simp [h9]
    have es : (f.st != X.st) = true := by simp [h9] at hbad; simp [hbad]
    clear hbad h9
    go_enter Try.func19, Try.ntmps19
    go_upto_region 3 with fail
    go_quiet (fail)
    all_goals
      go_wp2_with fail
      go_at_call 32
      refine (rbroken_any _ b _ _ 1 (P0.out.rb.below (by (repeat (first | exact Below.refl _ _ | refine Below.drew ?_ | refine below_drewN ?_ _ | refine Below.alloc ?_ (by first | exact Nat.le_refl _ | (simp only [size_al, size_dr]; omega)) _))))).mono ?_
      rintro e w1 ⟨rfl, hb1, hk1⟩
      have P1 := (P0.out.below (by (repeat (first | exact Below.refl _ _ | refine Below.drew ?_ | refine below_drewN ?_ _ | refine Below.alloc ?_ (by first | exact Nat.le_refl _ | (simp only [size_al, size_dr]; omega)) _)))).brk hb1 hk1
      obtain ⟨y0, y1, y2, y3, y4, y5, y6, y7, y8, y9, y10⟩ := P1.b2.cells
      obtain ⟨z0, z1, z2, z3, z4, z5, z6, z7, z8, z9, z10⟩ := P1.b2.frozens
      have t0 := cell_blk P1.b3 0
      have t1 := cell_blk P1.b3 1
      have t2 := frozen_blk P1.b3 0
      have t3 := frozen_blk P1.b3 1
      simp only [Fr.zero] at y0 y1 y2 y3 y4 y5 y6 y7 y8 y9 y10
      have ls := P1.size
      have ls1 : w.heap.size + 1 < w1.heap.size := by omega
      have hfin : Hid _ := P1.fin Fr.zero (none, 0, 0) _ rfl
      simp only [sets, fsets, sv, Fr.zero, List.foldl_cons, List.foldl_nil] at hfin
      clear P1 hb1 hk1
      unfold fv
      simp only [Fr.zero]
      go_wp2_with fail
      obtain ⟨g1, g2, g3⟩ := hfin.out
      refine bodyPost_ret (results_tctc (r := 4) (p := 5) (ty := 24) (q := 6) (s := 7) (tz := 32) rfl _ _ (w.heap.size + 1) (w.heap.size + 1 + 1) 24 32 (fv Fr.zero (.slice none 0 0)) #[.int .i64 1, .int .i64 0] (0, 0) (0, 0) _ _ rfl g1 Try.underlying24 rfl (by kernel_rfl) rfl g2 Try.underlying32 rfl (by kernel_rfl)) rfl ⟨rfl, g3⟩
  · have e9 : (f.ty != 9) = true := by simp [h9]
    clear hbad h9
    go_enter Try.func19, Try.ntmps19
    go_upto_region 3 with fail
    go_quiet (fail)
    all_goals
      go_wp2_with fail
      go_at_call 32
      refine (rbroken_any _ b _ _ 1 (P0.out.rb.below (by (repeat (first | exact Below.refl _ _ | refine Below.drew ?_ | refine below_drewN ?_ _ | refine Below.alloc ?_ (by first | exact Nat.le_refl _ | (simp only [size_al, size_dr]; omega)) _))))).mono ?_
      rintro e w1 ⟨rfl, hb1, hk1⟩
      have P1 := (P0.out.below (by (repeat (first | exact Below.refl _ _ | refine Below.drew ?_ | refine below_drewN ?_ _ | refine Below.alloc ?_ (by first | exact Nat.le_refl _ | (simp only [size_al, size_dr]; omega)) _)))).brk hb1 hk1
      obtain ⟨y0, y1, y2, y3, y4, y5, y6, y7, y8, y9, y10⟩ := P1.b2.cells
      obtain ⟨z0, z1, z2, z3, z4, z5, z6, z7, z8, z9, z10⟩ := P1.b2.frozens
      have t0 := cell_blk P1.b3 0
      have t1 := cell_blk P1.b3 1
      have t2 := frozen_blk P1.b3 0
      have t3 := frozen_blk P1.b3 1
      simp only [Fr.zero] at y0 y1 y2 y3 y4 y5 y6 y7 y8 y9 y10
      have ls := P1.size
      have ls1 : w.heap.size + 1 < w1.heap.size := by omega
      have hfin : Hid _ := P1.fin Fr.zero (none, 0, 0) _ rfl
      simp only [sets, fsets, sv, Fr.zero, List.foldl_cons, List.foldl_nil] at hfin
      clear P1 hb1 hk1
      unfold fv
      simp only [Fr.zero]
      go_wp2_with fail
      obtain ⟨g1, g2, g3⟩ := hfin.out
      refine bodyPost_ret (results_tctc (r := 4) (p := 5) (ty := 24) (q := 6) (s := 7) (tz := 32) rfl _ _ (w.heap.size + 1) (w.heap.size + 1 + 1) 24 32 (fv Fr.zero (.slice none 0 0)) #[.int .i64 1, .int .i64 0] (0, 0) (0, 0) _ _ rfl g1 Try.underlying24 rfl (by kernel_rfl) rfl g2 Try.underlying32 rfl (by kernel_rfl)) rfl ⟨rfl, g3⟩

set_option maxHeartbeats 8000000 in
set_option maxRecDepth 100000 in
theorem rpush_none (w : World) (b : Nat) (base : Option Addr) (cap : Nat) (f : Fr) (x : SV) (hj : RB w b (.slice base 0 cap) 0) (hr : R EF w (.slice base 0 cap) []) (h9 : ¬ f.ty = 9) (hh : dH f.ty = false) :
    Calls Try.prog 19 #[.pointer (some ⟨b, 0, none⟩), .agg (fv f (sv x))] w fun e w' => RPost w (.slice base 0 cap) b [] 0 false Fr.zero (none, 0, 0) ⟨#[]⟩ e w' := by
  have e9 : (f.ty == 9) = false := by simp [h9]
  have hC : Hid (∀ W, Calls Try.prog 29 #[.agg (fv f (sv x))] W fun e w' => e = .returned (.bool false) ∧ Below W.heap.size W w') := fun W => by have := rhead_any f (sv x) W; rw [hh] at this; exact this
  have P0 : Hid _ := Rp.start f (sv x) hj hr
  have B0 : Hid _ := bel3 w (.cells (fv f (sv x)) 24) (.cells (fv Fr.zero (.slice none 0 0)) 24) (.cells #[.int .i64 0, .int .i64 0] 32)
  obtain ⟨xb, xl, xc⟩ := x
  simp only [sv] at P0 B0 ⊢
  rw [fv_zero] at P0 B0
  have hlt := hj.lt
  have hlt1 : b < w.heap.size + 1 := by omega
  have hlt2 : b < w.heap.size + 1 + 1 := by omega
  unfold fv at P0 B0 ⊢
  obtain ⟨k0, k1, k2⟩ := hj.cells
  obtain ⟨f0, f1, f2⟩ := hj.frozens
  simp only [sv] at hC
  unfold fv at hC
  have HJ : Hid _ := hj
  clear hj hr h9 hh
  go_enter Try.func19, Try.ntmps19
  go_upto_region 3 with fail
  go_quiet (fail)
  all_goals
    go_wp2_with fail
    go_at_call 29
    refine (hC.out _).mono ?_
    rintro e w1 ⟨rfl, hb⟩
    have P1 := (P0.out.below (by (repeat (first | exact Below.refl _ _ | refine Below.drew ?_ | refine below_drewN ?_ _ | refine Below.alloc ?_ (by first | exact Nat.le_refl _ | (simp only [size_al, size_dr]; omega)) _)))).below hb
    obtain ⟨y0, y1, y2, y3, y4, y5, y6, y7, y8, y9, y10⟩ := P1.b2.cells
    obtain ⟨z0, z1, z2, z3, z4, z5, z6, z7, z8, z9, z10⟩ := P1.b2.frozens
    have t0 := cell_blk P1.b3 0
    have t1 := cell_blk P1.b3 1
    have t2 := frozen_blk P1.b3 0
    have t3 := frozen_blk P1.b3 1
    simp only [Fr.zero] at y0 y1 y2 y3 y4 y5 y6 y7 y8 y9 y10
    have ls := P1.size
    have ls1 : w.heap.size + 1 < w1.heap.size := by omega
    have hfin : Hid _ := P1.fin Fr.zero (none, 0, 0) _ rfl
    simp only [sets, fsets, sv, Fr.zero, List.foldl_cons, List.foldl_nil] at hfin
    clear P1 hb
    go_wp2_with fail
    obtain ⟨g1, g2, g3⟩ := hfin.out
    refine bodyPost_ret (results_tctc (r := 4) (p := 5) (ty := 24) (q := 6) (s := 7) (tz := 32) rfl _ _ (w.heap.size + 1) (w.heap.size + 1 + 1) 24 32 (fv Fr.zero (.slice none 0 0)) #[.int .i64 0, .int .i64 0] (0, 0) (0, 0) _ _ rfl g1 Try.underlying24 rfl (by kernel_rfl) rfl g2 Try.underlying32 rfl (by kernel_rfl)) rfl ⟨rfl, g3⟩
end Go.Proofs.Ytdgdjanchpfleaa
