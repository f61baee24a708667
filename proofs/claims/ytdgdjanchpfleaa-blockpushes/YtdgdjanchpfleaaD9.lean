/- The document's Push, going on. -/
import Derived.Test.YtdgdjanchpfleaaD7
import Derived.Test.YtdgdjanchpfleaaC8
import Derived.Deep.QuietTactic
import Derived.BigQuiet
namespace Go.Proofs.Ytdgdjanchpfleaa
open Go.RowKit
set_option linter.unusedVariables false
set_option linter.unusedSimpArgs false
/-- what is told where it goes on -/
def GPost (w : World) (v0 : Value) (b : Nat) (M : List (Fr × SV)) (F : Bool) (h : Fr) (y : SV) (e : Ending) (w' : World) : Prop :=
  if 131072 < (flat M).length then RPost w v0 b [] 11 false Fr.zero (none, 0, 0) ⟨#[]⟩ e w'
  else if F = true then RPost w v0 b M 0 false Fr.zero (none, 0, 0) ⟨#[]⟩ e w'
  else RPost w v0 b [] 0 true (headOf h) y (bt (flat M)) e w'

set_option maxHeartbeats 20000000 in
set_option maxRecDepth 100000 in
theorem rpush_igo (w : World) (b : Nat) (base : Option Addr) (cap : Nat) (f : Fr) (x : SV) (hj : RB w b (.slice base 0 cap) 0) (hr : R EF w (.slice base 0 cap) []) (h9 : ¬ f.ty = 9) (hh : dH f.ty = true) (hz : f.data.size ≤ 140737488355328) (F : Bool) (hf : (bits .and .i64 f.fl 4 == 0) = F) :
    Calls Try.prog 19 #[.pointer (some ⟨b, 0, none⟩), .agg (fv f (sv x))] w fun e w' => GPost w (.slice base 0 cap) b [(f, x)] F f x e w' := by
  have e9 : (f.ty == 9) = false := by simp [h9]
  have hC : Hid (∀ W, Calls Try.prog 29 #[.agg (fv f (sv x))] W fun e w' => e = .returned (.bool true) ∧ Below W.heap.size W w') := fun W => by have := rhead_any f (sv x) W; rw [hh] at this; exact this
  have P0 : Hid _ := Rp.start f (sv x) hj hr
  have B0 : Hid _ := bel3 w (.cells (fv f (sv x)) 24) (.cells (fv Fr.zero (.slice none 0 0)) 24) (.cells #[.int .i64 0, .int .i64 0] 32)
  obtain ⟨xb, xl, xc⟩ := x
  simp only [sv] at P0 B0 ⊢
  rw [fv_zero] at P0 B0
  have hlt := hj.lt
  have hlt1 : b < w.heap.size + 1 := by omega
  have hlt2 : b < w.heap.size + 1 + 1 := by omega
  unfold fv at P0 B0 ⊢
  obtain ⟨k0, k1, k2⟩ := hj.cells
  obtain ⟨f0, f1, f2⟩ := hj.frozens
  simp only [sv] at hC
  unfold fv at hC
  clear hj hr h9 hh
  go_enter Try.func19, Try.ntmps19
  go_upto_region 3 with fail
  go_quiet (fail)
  go_wp2_with fail
  go_at_call 29
  refine (hC.out _).mono ?_
  rintro e w1 ⟨rfl, hb⟩
  have P1 := (P0.out.below (by (repeat (first | exact Below.refl _ _ | refine Below.drew ?_ | refine below_drewN ?_ _ | refine Below.alloc ?_ (by first | exact Nat.le_refl _ | (simp only [size_al, size_dr]; omega)) _)))).below hb
  obtain ⟨base', cap', w7, hrun, rb7, l7, P7⟩ := P1.grow (xb, xl, xc) rfl (by simp)
  simp only [List.length_nil, Nat.zero_add, List.nil_append] at hrun P7
  obtain ⟨d0, d1, d2⟩ := P1.rb.cells
  obtain ⟨y0, y1, y2, y3, y4, y5, y6, y7, y8, y9, y10⟩ := P1.b1.cells
  have lw1 := P1.size
  have lw : w.heap.size < w1.heap.size := by omega
  have lb : b < w1.heap.size := P1.rb.lt
  obtain ⟨g', c', e1, e2, e3, e4, -⟩ := P7.rf.setc okF 0 0 (by simp) (by decide)
  injection e1 with e1 e5 e6
  subst e1
  subst e6
  clear e5
  simp at e2
  obtain ⟨r0, r1, r2⟩ := rb7.cells
  have r3 := frozen_blk rb7 0
  replace hrun : Hid _ := hrun
  obtain ⟨M, hM⟩ : ∃ M : List (Fr × SV), M = [(f, (xb, xl, xc))] := ⟨_, rfl⟩
  have HM : Hid (M = [(f, (xb, xl, xc))]) := hM
  have HP7 : Hid (Rp w (.slice base 0 cap) (w7.setCell ⟨b, 0, none⟩ (.slice (some ⟨g', 0, none⟩) 1 cap')) b (.slice (some ⟨g', 0, none⟩) 1 cap') M 0 f (.slice xb xl xc)) := by rw [hM]; exact P7
  have HL : Hid (M.length = 1) := by show _ = _; rw [hM]; simp
  have HZ : Hid (∀ i, (flat (M.take i)).length ≤ 131072 + f.data.size) := fun i => by
    have h1 := flat_le M i
    have h2 : (flat M).length = f.data.size := by rw [hM, flat_one, len_data]
    show _ ≤ _
    omega
  clear hM P7 rb7 P1 P0 B0 k0 k1 k2 f0 f1 f2
  clear hC
  unfold fv at hrun
  go_upto_region 9 with fail
  go_region_law (refine step_append_run rfl (.tmp 85) (.tmp 87) 37 37 rfl hrun.out (by simp [Act.eval]) (by simp [Act.eval]) ?_)
  all_goals
    go_wp2_with fail
    go_loopw [8, 9] (fun tv iv wr => ∃ (i : Nat) (S : ByteArray), tv = .string S ∧ iv = .int .i64 (i : Int) ∧ i ≤ 1 ∧ Hid (S = bt (flat (M.take i))) ∧ Hid (Rp w (.slice base 0 cap) wr b (.slice (some ⟨g', 0, none⟩) 1 cap') M 0 f (.slice xb xl xc))) (fun _ iv _ => 1 - (intOf iv).toNat)
    case atStart => exact ⟨0, ⟨#[]⟩, rfl, rfl, by omega, by show _ = _; simp [flat, bt], HP7.out⟩
    case round =>
      obtain ⟨i, S, rfl, rfl, hiN, hS, hP⟩ := hrel
      clear HP7 hrun d0 d1 d2 y0 y1 y2 y3 y4 y5 y6 y7 y8 y9 y10 r0 r1 r2 r3 lw lw1 lb l7 e4
      have hSz : S.size ≤ 131072 + f.data.size := by rw [hS.out, bt_size]; exact HZ.out i
      obtain ⟨k0, k1, k2⟩ := hP.out.rb.cells
      obtain ⟨f0, f1, f2⟩ := hP.out.rb.frozens
      have lb := hP.out.rb.lt
      by_cases hlt : i < 1
      · have hi : i < M.length := by rw [HL.out]; exact hlt
        obtain ⟨g2, c2, e1', -, -, -, -, d, -⟩ := hP.out.rf.setc okF i 0 hi (by decide)
        injection e1' with e1' e5
        injection e1' with e1'
        injection e1' with e1'
        subst e1'
        clear e5
        obtain ⟨D, hD⟩ : ∃ D, (M[i]'hi).1.data = D := ⟨_, rfl⟩
        have hc3 : wr.cell? ⟨g', i * 11 + 3, none⟩ = some (.string D) := d 3 _ (by rw [← hD]; rfl)
        have HNX : Hid (S ++ D = bt (flat (M.take (i + 1)))) := by
          show _ = _
          rw [flat_succ M i hi, hS.out, bt_app, hD]
        have hDz : S.size + D.size ≤ 131072 + f.data.size := by
          have h1 := HZ.out (i + 1)
          have h2 := congrArg ByteArray.size HNX.out
          rw [bt_size, ByteArray.size_append] at h2
          omega
        clear d hD
        have lg' := hP.out.rf.lt g' rfl
        go_wp2_with fail
        go_roundw
        case rel => exact ⟨i + 1, S ++ D, rfl, by simp, by omega, HNX.out, hP.out⟩
        case measure => simp [intOf]; omega
      · obtain rfl : i = 1 := by omega
        have hSS : Hid (S = bt (flat M)) := by
          have := hS.out
          rw [← HL.out, List.take_length] at this
          exact this
        have hF : Hid ((flat M).length = S.size) := by show _ = _; rw [hSS.out, bt_size]
        clear hlt hiN
        by_cases hbig : 131072 < S.size
        · have hbig' : (131072 : Int) < (S.size : Int) := by omega
          have HQ : Hid (131072 < (flat M).length) := by show _ < _; rw [hF.out]; exact hbig
          clear hbig
          go_wp2_with fail
          go_at_call 32
          refine (rbroken_any _ b _ _ 11 (hP.out.rb)).mono ?_
          rintro e w1 ⟨rfl, hb1, hk1⟩
          have P1 := (hP.out).brk hb1 hk1
          obtain ⟨y0, y1, y2, y3, y4, y5, y6, y7, y8, y9, y10⟩ := P1.b2.cells
          obtain ⟨z0, z1, z2, z3, z4, z5, z6, z7, z8, z9, z10⟩ := P1.b2.frozens
          have t0 := cell_blk P1.b3 0
          have t1 := cell_blk P1.b3 1
          have t2 := frozen_blk P1.b3 0
          have t3 := frozen_blk P1.b3 1
          simp only [Fr.zero] at y0 y1 y2 y3 y4 y5 y6 y7 y8 y9 y10
          have ls := P1.size
          have ls1 : w.heap.size + 1 < w1.heap.size := by omega
          have hfin : Hid _ := P1.fin Fr.zero (none, 0, 0) _ rfl
          simp only [sets, fsets, sv, Fr.zero, List.foldl_cons, List.foldl_nil] at hfin
          clear P1 hb1 hk1
          unfold fv
          simp only [Fr.zero]
          go_wp2_with fail
          obtain ⟨g1, g2, g3⟩ := hfin.out
          refine bodyPost_ret (results_tctc (r := 4) (p := 5) (ty := 24) (q := 6) (s := 7) (tz := 32) rfl _ _ (w.heap.size + 1) (w.heap.size + 1 + 1) 24 32 (fv Fr.zero (.slice none 0 0)) #[.int .i64 11, .int .i64 0] (0, 0) (0, 0) _ _ rfl g1 Try.underlying24 rfl (by kernel_rfl) rfl g2 Try.underlying32 rfl (by kernel_rfl)) rfl (by unfold GPost; rw [HM.out] at HQ; rw [if_pos HQ.out]; exact ⟨rfl, g3⟩)
        · have hbig' : ¬ (131072 : Int) < (S.size : Int) := by omega
          have HQ : Hid ((flat M).length ≤ 131072) := by show _ ≤ _; rw [hF.out]; omega
          clear hbig
          have hC4 : Hid (∀ W, Calls Try.prog 30 #[.int .i64 f.fl, .int .i64 4] W fun e w' => e = .returned (.bool (!F)) ∧ w' = W) := fun W => by
            have := rhas_any f.fl 4 W
            rw [bne, hf] at this
            exact this
          obtain ⟨y0, y1, y2, y3, y4, y5, y6, y7, y8, y9, y10⟩ := hP.out.b1.cells
          have lw1 := hP.out.size
          have lw : w.heap.size < wr.heap.size := by omega
          clear hf
          cases F
          · simp only [Bool.not_false] at hC4
            have hX : M[0]? = some (f, (xb, xl, xc)) := by rw [HM.out]; rfl
            have hi : 0 < M.length := by rw [HL.out]; omega
            obtain ⟨g2, c2, e1', -, -, -, -, d, -⟩ := hP.out.rf.setc okF 0 0 hi (by decide)
            injection e1' with e1' e5
            injection e1' with e1'
            injection e1' with e1'
            subst e1'
            clear e5
            have hget : M[0]'hi = (f, (xb, xl, xc)) := by
              rw [List.getElem?_eq_getElem hi] at hX
              exact Option.some.inj hX
            rw [hget] at d
            have d0 : wr.cell? ⟨g', 0, none⟩ = some (.int .i64 f.ty) := d 0 _ rfl
            have d1 : wr.cell? ⟨g', 1, none⟩ = some (.int .i64 f.fl) := d 1 _ rfl
            have d2 : wr.cell? ⟨g', 2, none⟩ = some (.int .i64 f.st) := d 2 _ rfl
            have d3 : wr.cell? ⟨g', 3, none⟩ = some (.string f.data) := d 3 _ rfl
            have d4 : wr.cell? ⟨g', 4, none⟩ = some (.int .i64 f.pad) := d 4 _ rfl
            have d5 : wr.cell? ⟨g', 5, none⟩ = some (.int .i64 f.dep) := d 5 _ rfl
            have d6 : wr.cell? ⟨g', 6, none⟩ = some (.bool f.excl) := d 6 _ rfl
            have d7 : wr.cell? ⟨g', 7, none⟩ = some (.int .i64 f.wt) := d 7 _ rfl
            have d8 : wr.cell? ⟨g', 8, none⟩ = some (.int .i64 f.code) := d 8 _ rfl
            have d9 : wr.cell? ⟨g', 9, none⟩ = some (.int .i64 f.last) := d 9 _ rfl
            have d10 : wr.cell? ⟨g', 10, none⟩ = some (sv (xb, xl, xc)) := d 10 _ rfl
            simp only [sv] at d10
            have lg' := hP.out.rf.lt g' rfl
            have ng : g' ≠ b := fun e => own_ne hP.out.rf hP.out.rb (by decide) g' rfl e
            clear d hget hX
            have P1 := hP.out
            obtain ⟨x0, x1, x2, x3, x4, x5, x6, x7, x8, x9, x10⟩ := P1.b2.cells
            obtain ⟨z0, z1, z2, z3, z4, z5, z6, z7, z8, z9, z10⟩ := P1.b2.frozens
            have t0 := cell_blk P1.b3 0
            have t1 := cell_blk P1.b3 1
            have t2 := frozen_blk P1.b3 0
            have t3 := frozen_blk P1.b3 1
            simp only [Fr.zero] at x0 x1 x2 x3 x4 x5 x6 x7 x8 x9 x10
            have ls1 : w.heap.size + 1 < wr.heap.size := by omega
            have hfin : Hid _ := P1.drop.fin (headOf f) (xb, xl, xc) _ rfl
            simp only [sets, fsets, sv, headOf, List.foldl_cons, List.foldl_nil] at hfin
            clear P1
            go_wp2_with fail
            go_at_call 30
            refine (hC4.out _).mono ?_
            rintro e w2 ⟨rfl, rfl⟩
            go_upto_region 23 with fail
            go_region
            all_goals
              go_wp2_with fail
              obtain ⟨g1, g2, g3⟩ := hfin.out
              refine bodyPost_ret (results_tctc (r := 4) (p := 5) (ty := 24) (q := 6) (s := 7) (tz := 32) rfl _ _ (w.heap.size + 1) (w.heap.size + 1 + 1) 24 32 (fv (headOf f) (sv (xb, xl, xc))) #[.int .i64 0, .int .i64 0] (0, 0) (0, 0) _ _ rfl ?q1 Try.underlying24 rfl (by kernel_rfl) rfl ?q2 Try.underlying32 rfl (by kernel_rfl)) rfl ?q3
              case q1 => exact FB.below g1 (bel1 _ _).drew
              case q2 => exact (((bel1 _ _).drew).block _ (heap_lt g2)).trans g2
              case q3 =>
                unfold GPost
                have hs := hSS.out
                rw [HM.out] at HQ hs
                rw [if_neg (Nat.not_lt.2 HQ.out), if_neg (by decide)]
                refine ⟨?_, RuR.below g3 (bel1 _ _).drew⟩
                first | (rw [← hs]; rfl) | (have hs' := hs.symm; simp only [List.cons_append, List.nil_append] at hs' ⊢; rw [hs']; rfl)
          · simp only [Bool.not_true] at hC4
            have P1 := hP.out
            obtain ⟨x0, x1, x2, x3, x4, x5, x6, x7, x8, x9, x10⟩ := P1.b2.cells
            obtain ⟨z0, z1, z2, z3, z4, z5, z6, z7, z8, z9, z10⟩ := P1.b2.frozens
            have t0 := cell_blk P1.b3 0
            have t1 := cell_blk P1.b3 1
            have t2 := frozen_blk P1.b3 0
            have t3 := frozen_blk P1.b3 1
            simp only [Fr.zero] at x0 x1 x2 x3 x4 x5 x6 x7 x8 x9 x10
            have ls1 : w.heap.size + 1 < wr.heap.size := by omega
            have hfin : Hid _ := P1.fin Fr.zero (none, 0, 0) _ rfl
            simp only [sets, fsets, sv, Fr.zero, List.foldl_cons, List.foldl_nil] at hfin
            clear P1
            go_wp2_with fail
            go_at_call 30
            refine (hC4.out _).mono ?_
            rintro e w2 ⟨rfl, rfl⟩
            go_wp2_with fail
            obtain ⟨g1, g2, g3⟩ := hfin.out
            refine bodyPost_ret (results_tctc (r := 4) (p := 5) (ty := 24) (q := 6) (s := 7) (tz := 32) rfl _ _ (w.heap.size + 1) (w.heap.size + 1 + 1) 24 32 (fv Fr.zero (.slice none 0 0)) #[.int .i64 0, .int .i64 0] (0, 0) (0, 0) _ _ rfl g1 Try.underlying24 rfl (by kernel_rfl) rfl g2 Try.underlying32 rfl (by kernel_rfl)) rfl (by unfold GPost; rw [HM.out] at HQ; rw [if_neg (Nat.not_lt.2 HQ.out)]; rw [HM.out] at g3; exact ⟨rfl, g3⟩)
end Go.Proofs.Ytdgdjanchpfleaa
