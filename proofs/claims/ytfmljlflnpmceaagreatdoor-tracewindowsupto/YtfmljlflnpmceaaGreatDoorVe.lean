import Derived.Test.YtfmljlflnpmceaaGreatDoorTA2
import Derived.Test.YtfmljlflnpmceaaGreatDoorVa
import Derived.Test.YtfmljlflnpmceaaGreatDoorTK3
import Derived.Deep.Cut
import Derived.Deep.CutRange
/- What Next answers, as a table. -/
namespace Go.Proofs.YtfmljlflnpmceaaGreatDoor
open Go.RowKit
set_option linter.unusedVariables false
set_option linter.unusedSimpArgs false

theorem nx_any (s : Int) (g : Bool) (k : Int) : NxS s g k (nx s g k).1 (nx s g k).2.1 (nx s g k).2.2 := by
  by_cases hk : 1 ≤ k ∧ k ≤ 8
  · by_cases h0 : s < 0
    · rw [nx_out (by omega)]
      rcases kinds hk with rfl | rfl | rfl | rfl | rfl | rfl | rfl | rfl
      · exact nx_1_low s g h0
      · exact nx_2_low s g h0
      · exact nx_3_low s g h0
      · exact nx_4_low s g h0
      · exact nx_5_low s g h0
      · exact nx_6_low s g h0
      · exact nx_7_low s g h0
      · exact nx_8_low s g h0
    by_cases h6 : 6 < s
    · rw [nx_out (by omega)]
      rcases kinds hk with rfl | rfl | rfl | rfl | rfl | rfl | rfl | rfl
      · exact nx_1_high s g h0 h6
      · exact nx_2_high s g h0 h6
      · exact nx_3_high s g h0 h6
      · exact nx_4_high s g h0 h6
      · exact nx_5_high s g h0 h6
      · exact nx_6_high s g h0 h6
      · exact nx_7_high s g h0 h6
      · exact nx_8_high s g h0 h6
    have hs : 0 ≤ s ∧ s ≤ 6 := by omega
    clear h0 h6
    cases g
    · rcases kinds hk with rfl | rfl | rfl | rfl | rfl | rfl | rfl | rfl
      · rcases states hs with rfl | rfl | rfl | rfl | rfl | rfl | rfl
        · exact nx_1_f _ _ _ _ (by decide) (by decide) a65_0
        · exact nx_1_f _ _ _ _ (by decide) (by decide) a65_1
        · exact nx_1_f _ _ _ _ (by decide) (by decide) a65_2
        · exact nx_1_f _ _ _ _ (by decide) (by decide) a65_3
        · exact nx_1_f _ _ _ _ (by decide) (by decide) a65_4
        · exact nx_1_f _ _ _ _ (by decide) (by decide) a65_5
        · exact nx_1_f _ _ _ _ (by decide) (by decide) a65_6
      · rcases states hs with rfl | rfl | rfl | rfl | rfl | rfl | rfl
        · exact nx_2_f _ _ _ _ (by decide) (by decide) a67_0
        · exact nx_2_f _ _ _ _ (by decide) (by decide) a67_1
        · exact nx_2_f _ _ _ _ (by decide) (by decide) a67_2
        · exact nx_2_f _ _ _ _ (by decide) (by decide) a67_3
        · exact nx_2_f _ _ _ _ (by decide) (by decide) a67_4
        · exact nx_2_f _ _ _ _ (by decide) (by decide) a67_5
        · exact nx_2_f _ _ _ _ (by decide) (by decide) a67_6
      · rcases states hs with rfl | rfl | rfl | rfl | rfl | rfl | rfl
        · exact nx_3_f _ _ _ _ (by decide) (by decide) a69_0
        · exact nx_3_f _ _ _ _ (by decide) (by decide) a69_1
        · exact nx_3_f _ _ _ _ (by decide) (by decide) a69_2
        · exact nx_3_f _ _ _ _ (by decide) (by decide) a69_3
        · exact nx_3_f _ _ _ _ (by decide) (by decide) a69_4
        · exact nx_3_f _ _ _ _ (by decide) (by decide) a69_5
        · exact nx_3_f _ _ _ _ (by decide) (by decide) a69_6
      · rcases states hs with rfl | rfl | rfl | rfl | rfl | rfl | rfl
        · exact nx_4_f _ _ _ _ (by decide) (by decide) a71_0
        · exact nx_4_f _ _ _ _ (by decide) (by decide) a71_1
        · exact nx_4_f _ _ _ _ (by decide) (by decide) a71_2
        · exact nx_4_f _ _ _ _ (by decide) (by decide) a71_3
        · exact nx_4_f _ _ _ _ (by decide) (by decide) a71_4
        · exact nx_4_f _ _ _ _ (by decide) (by decide) a71_5
        · exact nx_4_f _ _ _ _ (by decide) (by decide) a71_6
      · rcases states hs with rfl | rfl | rfl | rfl | rfl | rfl | rfl
        · exact nx_5_f _ _ _ _ (by decide) (by decide) a73_0
        · exact nx_5_f _ _ _ _ (by decide) (by decide) a73_1
        · exact nx_5_f _ _ _ _ (by decide) (by decide) a73_2
        · exact nx_5_f _ _ _ _ (by decide) (by decide) a73_3
        · exact nx_5_f _ _ _ _ (by decide) (by decide) a73_4
        · exact nx_5_f _ _ _ _ (by decide) (by decide) a73_5
        · exact nx_5_f _ _ _ _ (by decide) (by decide) a73_6
      · rcases states hs with rfl | rfl | rfl | rfl | rfl | rfl | rfl
        · exact nx_6_f _ _ _ _ (by decide) (by decide) a75_0
        · exact nx_6_f _ _ _ _ (by decide) (by decide) a75_1
        · exact nx_6_f _ _ _ _ (by decide) (by decide) a75_2
        · exact nx_6_f _ _ _ _ (by decide) (by decide) a75_3
        · exact nx_6_f _ _ _ _ (by decide) (by decide) a75_4
        · exact nx_6_f _ _ _ _ (by decide) (by decide) a75_5
        · exact nx_6_f _ _ _ _ (by decide) (by decide) a75_6
      · rcases states hs with rfl | rfl | rfl | rfl | rfl | rfl | rfl
        · exact nx_7_f _ _ _ _ (by decide) (by decide) a77_0
        · exact nx_7_f _ _ _ _ (by decide) (by decide) a77_1
        · exact nx_7_f _ _ _ _ (by decide) (by decide) a77_2
        · exact nx_7_f _ _ _ _ (by decide) (by decide) a77_3
        · exact nx_7_f _ _ _ _ (by decide) (by decide) a77_4
        · exact nx_7_f _ _ _ _ (by decide) (by decide) a77_5
        · exact nx_7_f _ _ _ _ (by decide) (by decide) a77_6
      · rcases states hs with rfl | rfl | rfl | rfl | rfl | rfl | rfl
        · exact nx_8_f _ _ _ _ (by decide) (by decide) (a79_any 0)
        · exact nx_8_f _ _ _ _ (by decide) (by decide) (a79_any 1)
        · exact nx_8_f _ _ _ _ (by decide) (by decide) (a79_any 2)
        · exact nx_8_f _ _ _ _ (by decide) (by decide) (a79_any 3)
        · exact nx_8_f _ _ _ _ (by decide) (by decide) (a79_any 4)
        · exact nx_8_f _ _ _ _ (by decide) (by decide) (a79_any 5)
        · exact nx_8_f _ _ _ _ (by decide) (by decide) (a79_any 6)
    · rcases kinds hk with rfl | rfl | rfl | rfl | rfl | rfl | rfl | rfl
      · rcases states hs with rfl | rfl | rfl | rfl | rfl | rfl | rfl
        · exact nx_1_t _ _ _ _ (by decide) (by decide) a66_0
        · exact nx_1_t _ _ _ _ (by decide) (by decide) a66_1
        · exact nx_1_t _ _ _ _ (by decide) (by decide) a66_2
        · exact nx_1_t _ _ _ _ (by decide) (by decide) a66_3
        · exact nx_1_t _ _ _ _ (by decide) (by decide) a66_4
        · exact nx_1_t _ _ _ _ (by decide) (by decide) a66_5
        · exact nx_1_t _ _ _ _ (by decide) (by decide) a66_6
      · rcases states hs with rfl | rfl | rfl | rfl | rfl | rfl | rfl
        · exact nx_2_t _ _ _ _ (by decide) (by decide) a68_0
        · exact nx_2_t _ _ _ _ (by decide) (by decide) a68_1
        · exact nx_2_t _ _ _ _ (by decide) (by decide) a68_2
        · exact nx_2_t _ _ _ _ (by decide) (by decide) a68_3
        · exact nx_2_t _ _ _ _ (by decide) (by decide) a68_4
        · exact nx_2_t _ _ _ _ (by decide) (by decide) a68_5
        · exact nx_2_t _ _ _ _ (by decide) (by decide) a68_6
      · rcases states hs with rfl | rfl | rfl | rfl | rfl | rfl | rfl
        · exact nx_3_t _ _ _ _ (by decide) (by decide) a70_0
        · exact nx_3_t _ _ _ _ (by decide) (by decide) a70_1
        · exact nx_3_t _ _ _ _ (by decide) (by decide) a70_2
        · exact nx_3_t _ _ _ _ (by decide) (by decide) a70_3
        · exact nx_3_t _ _ _ _ (by decide) (by decide) a70_4
        · exact nx_3_t _ _ _ _ (by decide) (by decide) a70_5
        · exact nx_3_t _ _ _ _ (by decide) (by decide) a70_6
      · rcases states hs with rfl | rfl | rfl | rfl | rfl | rfl | rfl
        · exact nx_4_t _ _ _ _ (by decide) (by decide) a72_0
        · exact nx_4_t _ _ _ _ (by decide) (by decide) a72_1
        · exact nx_4_t _ _ _ _ (by decide) (by decide) a72_2
        · exact nx_4_t _ _ _ _ (by decide) (by decide) a72_3
        · exact nx_4_t _ _ _ _ (by decide) (by decide) a72_4
        · exact nx_4_t _ _ _ _ (by decide) (by decide) a72_5
        · exact nx_4_t _ _ _ _ (by decide) (by decide) a72_6
      · rcases states hs with rfl | rfl | rfl | rfl | rfl | rfl | rfl
        · exact nx_5_t _ _ _ _ (by decide) (by decide) a74_0
        · exact nx_5_t _ _ _ _ (by decide) (by decide) a74_1
        · exact nx_5_t _ _ _ _ (by decide) (by decide) a74_2
        · exact nx_5_t _ _ _ _ (by decide) (by decide) a74_3
        · exact nx_5_t _ _ _ _ (by decide) (by decide) a74_4
        · exact nx_5_t _ _ _ _ (by decide) (by decide) a74_5
        · exact nx_5_t _ _ _ _ (by decide) (by decide) a74_6
      · rcases states hs with rfl | rfl | rfl | rfl | rfl | rfl | rfl
        · exact nx_6_t _ _ _ _ (by decide) (by decide) a76_0
        · exact nx_6_t _ _ _ _ (by decide) (by decide) a76_1
        · exact nx_6_t _ _ _ _ (by decide) (by decide) a76_2
        · exact nx_6_t _ _ _ _ (by decide) (by decide) a76_3
        · exact nx_6_t _ _ _ _ (by decide) (by decide) a76_4
        · exact nx_6_t _ _ _ _ (by decide) (by decide) a76_5
        · exact nx_6_t _ _ _ _ (by decide) (by decide) a76_6
      · rcases states hs with rfl | rfl | rfl | rfl | rfl | rfl | rfl
        · exact nx_7_t _ _ _ _ (by decide) (by decide) a78_0
        · exact nx_7_t _ _ _ _ (by decide) (by decide) a78_1
        · exact nx_7_t _ _ _ _ (by decide) (by decide) a78_2
        · exact nx_7_t _ _ _ _ (by decide) (by decide) a78_3
        · exact nx_7_t _ _ _ _ (by decide) (by decide) a78_4
        · exact nx_7_t _ _ _ _ (by decide) (by decide) a78_5
        · exact nx_7_t _ _ _ _ (by decide) (by decide) a78_6
      · rcases states hs with rfl | rfl | rfl | rfl | rfl | rfl | rfl
        · exact nx_8_t _ _ _ _ (by decide) (by decide) a80_0
        · exact nx_8_t _ _ _ _ (by decide) (by decide) a80_1
        · exact nx_8_t _ _ _ _ (by decide) (by decide) a80_2
        · exact nx_8_t _ _ _ _ (by decide) (by decide) a80_3
        · exact nx_8_t _ _ _ _ (by decide) (by decide) a80_4
        · exact nx_8_t _ _ _ _ (by decide) (by decide) a80_5
        · exact nx_8_t _ _ _ _ (by decide) (by decide) a80_6
  · rw [nx_out (by omega)]
    exact nx_no s k g (beq_eq_false_iff_ne.2 (by omega)) (beq_eq_false_iff_ne.2 (by omega)) (beq_eq_false_iff_ne.2 (by omega)) (beq_eq_false_iff_ne.2 (by omega)) (beq_eq_false_iff_ne.2 (by omega)) (beq_eq_false_iff_ne.2 (by omega)) (beq_eq_false_iff_ne.2 (by omega)) (beq_eq_false_iff_ne.2 (by omega))
end Go.Proofs.YtfmljlflnpmceaaGreatDoor
/- Do. -/
namespace Go.Proofs.YtfmljlflnpmceaaGreatDoor
open Go.RowKit Go.Maps
set_option linter.unusedVariables false
set_option linter.unusedSimpArgs false

/-- within Do: the event's block, the verdict's, the table -/
structure Dm (w w2 : World) (p b : Nat) (T : Tb) (g : Bool) (k : Int) : Prop where
  ev : w2.heap[w.heap.size]? = some (.cells #[.bool g, .int .i64 k] 119)
  vd : w2.heap[w.heap.size + 1]? = some (.cells #[.int .i64 0, .int .i64 0] 116)
  ti : TI w2 p b T
  ks : K2s p b w w2
  pl : p < w.heap.size
  bl : b < w.heap.size
theorem Dm.start {w : World} {p b : Nat} {T : Tb} (g : Bool) (k : Int) (h : TI w p b T) : Dm w ((w.alloc (.cells #[.bool g, .int .i64 k] 119)).alloc (.cells #[.int .i64 0, .int .i64 0] 116)) p b T g k :=
  ⟨by rw [heap_al, if_neg (by simp), heap_al, if_pos rfl], fresh2 _ _ _, h.below (bel2 _ _ _), K2s.of_below (bel2 _ _ _), h.lt, h.mlt⟩
theorem Dm.below {w w2 w3 : World} {p b : Nat} {T : Tb} {g : Bool} {k : Int} (h : Dm w w2 p b T g k) (hB : Below w2.heap.size w2 w3) : Dm w w3 p b T g k :=
  ⟨(hB.block _ (heap_lt h.ev)).trans h.ev, (hB.block _ (heap_lt h.vd)).trans h.vd, h.ti.below hB, h.ks.tr (K2s.of_below hB), h.pl, h.bl⟩
theorem Dm.moved {w w2 w3 : World} {p b : Nat} {T T' : Tb} {g : Bool} {k : Int} (h : Dm w w2 p b T g k) (ht : TI w3 p b T') (hk : K2s p b w2 w3) : Dm w w3 p b T' g k :=
  ⟨(hk.block _ (heap_lt h.ev) (by have := h.pl; have := h.bl; omega)).trans h.ev, (hk.block _ (heap_lt h.vd) (by have := h.pl; have := h.bl; omega)).trans h.vd, ht, h.ks.tr hk, h.pl, h.bl⟩
theorem Dm.cells {w w2 : World} {p b : Nat} {T : Tb} {g : Bool} {k : Int} (h : Dm w w2 p b T g k) : w2.cell? ⟨w.heap.size, 0, none⟩ = some (.bool g) ∧ w2.cell? ⟨w.heap.size, 1, none⟩ = some (.int .i64 k) ∧ w.heap.size < w2.heap.size :=
  ⟨cell_blk h.ev 0, cell_blk h.ev 1, heap_lt h.ev⟩
theorem Dm.fin {w w2 : World} {p b : Nat} {T : Tb} {g : Bool} {k : Int} (h : Dm w w2 p b T g k) :
    w2.cell? ⟨w.heap.size + 1, 0, none⟩ = some (.int .i64 0) ∧ w2.cell? ⟨w.heap.size + 1, 1, none⟩ = some (.int .i64 0) ∧ w2.frozen? ⟨w.heap.size + 1, 0, none⟩ = false ∧ w2.frozen? ⟨w.heap.size + 1, 1, none⟩ = false ∧
      ∀ x y, ((w2.setCell ⟨w.heap.size + 1, 0, none⟩ x).setCell ⟨w.heap.size + 1, 1, none⟩ y).heap[w.heap.size + 1]? = some (.cells #[x, y] 116) ∧
        TI ((w2.setCell ⟨w.heap.size + 1, 0, none⟩ x).setCell ⟨w.heap.size + 1, 1, none⟩ y) p b T ∧ K2s p b w ((w2.setCell ⟨w.heap.size + 1, 0, none⟩ x).setCell ⟨w.heap.size + 1, 1, none⟩ y) := by
  have hp := h.pl
  have hb := h.bl
  refine ⟨cell_blk h.vd 0, cell_blk h.vd 1, frozen_blk h.vd 0, frozen_blk h.vd 1, fun x y => ⟨?_, ?_, ?_⟩⟩
  · exact setCell_block _ _ 1 y _ _ _ (setCell_block _ _ 0 x _ _ _ h.vd)
  · exact h.ti.stays ((setCell_other _ _ _ _ _ (by omega)).trans (setCell_other _ _ _ _ _ (by omega))) ((setCell_other _ _ _ _ _ (by omega)).trans (setCell_other _ _ _ _ _ (by omega)))
  · refine ⟨h.ks.os, h.ks.tape, h.ks.output, by simpa [World.setCell] using h.ks.size, fun i hi hn => ?_⟩
    rw [setCell_other _ _ _ _ _ (by omega), setCell_other _ _ _ _ _ (by omega)]
    exact h.ks.block i hi hn

set_option maxRecDepth 100000 in
set_option maxHeartbeats 4000000 in
theorem do_any (w : World) (p b : Nat) (T : Tb) (id : Int) (g : Bool) (k : Int) (h : TI w p b T) (hid : I64 id) :
    Calls Tryz.prog 64 #[.pointer (some ⟨p, 0, none⟩), .int .i64 id, .agg #[.bool g, .int .i64 k]] w fun e w' => e = .returned (.agg #[.int .i64 (T.doo id g k).2.1, .int .i64 (T.doo id g k).2.2]) ∧ TI w' p b (T.doo id g k).1 ∧ K2s p b w w' := by
  have hst := h.ok.st_range id
  have d0 := Dm.start g k h
  have hnx := nx_any (T.st id) g k
  have hdo : T.doo id g k = T.doo id g k := rfl
  conv at hdo => rhs; unfold Tb.doo
  have hmv := fun (w2 : World) (n : Int) (h2 : TI w2 p b T) (h3 : isStr id = true) (h4 : 1 ≤ n ∧ n ≤ 6) => move_any w2 p b T id n g k h2 (isStr_iff.1 h3) h4
  have hnew := fun (hk : isK k = true) => nx_new (g := g) hst (isK_iff.1 hk)
  have hst_any := fun w2 (h2 : TI w2 p b T) => state_any w2 p b T id h2 hid
  clear hst h
  generalize T.st id = s at hdo hnx hnew hst_any
  generalize T.doo id g k = r at hdo ⊢
  go_enter Tryz.func64, Tryz.ntmps64
  go_wp2_with fail
  refine (hst_any _ d0.ti).mono ?_
  rintro e w1 ⟨rfl, hB⟩
  replace d0 := d0.below hB
  clear hB hst_any
  obtain ⟨a0, a1, a2⟩ := d0.cells
  go_wp2_with fail
  refine (isKind_any k _).mono ?_
  rintro e w1 ⟨rfl, rfl⟩
  cases hk : isK k
  · rw [hk, if_pos rfl] at hdo
    subst hdo
    obtain ⟨c0, c1, f0, f1, hF⟩ := d0.fin
    clear hnx hnew hmv hk d0
    go_wp2
    refine bodyPost_ret (results_c (p := 6) (ty := 116) rfl _ _ (w.heap.size + 1) 116 _ (0, 0) _ rfl (hF _ _).1 Tryz.underlying116 rfl (by kernel_rfl)) rfl ⟨rfl, (hF _ _).2⟩
  rw [hk, if_neg (by decide)] at hdo
  replace hnew := hnew hk
  clear hk
  go_wp2_with fail
  refine (isStream_any id _).mono ?_
  rintro e w1 ⟨rfl, rfl⟩
  cases hs : isStr id
  · rw [hs, if_pos rfl] at hdo
    subst hdo
    clear hnx hnew hmv hs
    go_wp2_with fail
    refine (misplaced_any g k _).mono ?_
    rintro e w2 ⟨rfl, hB⟩
    obtain ⟨c0, c1, f0, f1, hF⟩ := (d0.below hB).fin
    clear hB d0 a0 a1 a2
    go_wp2
    refine bodyPost_ret (results_c (p := 6) (ty := 116) rfl _ _ (w.heap.size + 1) 116 _ (0, 0) _ rfl (hF _ _).1 Tryz.underlying116 rfl (by kernel_rfl)) rfl ⟨rfl, (hF _ _).2⟩
  rw [hs, if_neg (by decide)] at hdo
  replace hmv := fun w2 n h2 => hmv w2 n h2 hs
  clear hs
  have HDO : Hid (r = _) := hdo
  clear hdo
  have HMV : Hid _ := hmv
  have HNX : Hid _ := hnx
  have HNW : Hid _ := hnew
  clear hmv hnx hnew
  go_upto_region 6 with fail
  go_cut [25] from 26 (fun x wx => x = .bool (s == 0 && isB k && !T.may id g k) ∧ Below w1.heap.size w1 wx)
  case first =>
    cases e0 : (s == 0)
    · go_wp2_with fail
      go_meet
      exact ⟨by first | rfl | (simp only [e0]; rfl) | (simp only [e0, eb]; rfl), Below.refl _ _⟩
    · cases eb : isB k
      · go_wp2_with fail
        refine (isBirth_any k _).mono ?_
        rintro e w1 ⟨rfl, rfl⟩
        rw [eb]
        go_wp2_with fail
        go_meet
        exact ⟨by first | rfl | (simp only [e0]; rfl) | (simp only [e0, eb]; rfl), Below.refl _ _⟩
      · go_wp2_with fail
        refine (isBirth_any k _).mono ?_
        rintro e w1 ⟨rfl, rfl⟩
        rw [eb]
        go_wp2_with fail
        refine (mayBear_any _ p b T id g k d0.ti).mono ?_
        rintro e w3 ⟨rfl, hB⟩
        go_wp2_with fail
        go_meet
        exact ⟨by simp only [e0, eb]; rfl, hB⟩
  case rest =>
    obtain ⟨rfl, hB⟩ := hcut
    replace d0 := d0.below hB
    clear hB a0 a1 a2
    obtain ⟨a0, a1, a2⟩ := d0.cells
    cases e1 : (s == 0 && isB k && !T.may id g k)
    · have HDO2 := HDO.out
      rw [e1, if_neg (by decide)] at HDO2
      have HDO3 : Hid _ := HDO2
      clear HDO2 HDO e1
      go_upto_region 8 with fail
      go_cut [42] from 43 (fun x wx => x = .bool (T.cut id && g && !(k == 5)) ∧ wx = wc)
      case first =>
        cases ec : T.cut id
        · go_wp2_with fail
          refine (cut_any _ p b T id d0.ti hid).mono ?_
          rintro e wc ⟨rfl, rfl⟩
          rw [ec]
          go_wp2_with fail
          go_meet
          exact ⟨by simp only [ec]; rfl, rfl⟩
        · cases g
          · go_wp2_with fail
            refine (cut_any _ p b T id d0.ti hid).mono ?_
            rintro e wc ⟨rfl, rfl⟩
            rw [ec]
            go_wp2_with fail
            go_meet
            exact ⟨by simp only [ec]; rfl, rfl⟩
          · go_wp2_with fail
            refine (cut_any _ p b T id d0.ti hid).mono ?_
            rintro e wc ⟨rfl, rfl⟩
            rw [ec]
            go_wp2_with fail
            go_meet
            exact ⟨by simp only [ec]; first | rfl | simp, rfl⟩
      case rest =>
        obtain ⟨rfl, rfl⟩ := hcut
        cases e2 : (T.cut id && g && !(k == 5))
        · have HDO4 := HDO3.out
          rw [e2, if_neg (by decide)] at HDO4
          clear HDO3 e2
          have hnx := HNX.out
          have hnew := HNW.out
          clear HNX HNW
          generalize (nx s g k).1 = n at HDO4 hnx hnew
          generalize (nx s g k).2 = vc at HDO4 hnx hnew
          obtain ⟨v, c⟩ := vc
          simp only at HDO4 hnx hnew
          go_wp2_with fail
          refine (hnx _).mono ?_
          rintro e w2 ⟨rfl, hB⟩
          replace d0 := d0.below hB
          clear hB a0 a1 a2 hnx
          have hsz : Hid (w.heap.size ≤ w2.heap.size) := d0.ks.size
          replace d0 := d0.below (bel1 w2 (.cells #[.int .i64 v, .int .i64 c] 116))
          obtain ⟨a0, a1, a2⟩ := d0.cells
          cases e3 : (v == 0 && !(n == s))
          · rw [e3, if_neg (by decide)] at HDO4
            subst HDO4
            obtain ⟨c0, c1, f0, f1, hF⟩ := d0.fin
            clear d0 HMV hnew
            cases ev : (v == 0)
            · clear e3
              go_wp2
              refine bodyPost_ret (results_c (p := 6) (ty := 116) rfl _ _ (w.heap.size + 1) 116 _ (0, 0) _ rfl (hF _ _).1 Tryz.underlying116 rfl (by kernel_rfl)) rfl ⟨rfl, (hF _ _).2⟩
            · rw [ev] at e3
              replace e3 : (n == s) = true := by simpa using e3
              go_wp2
              refine bodyPost_ret (results_c (p := 6) (ty := 116) rfl _ _ (w.heap.size + 1) 116 _ (0, 0) _ rfl (hF _ _).1 Tryz.underlying116 rfl (by kernel_rfl)) rfl ⟨rfl, (hF _ _).2⟩
          · rw [e3, if_pos rfl] at HDO4
            subst HDO4
            simp only [Bool.and_eq_true, Bool.not_eq_true'] at e3
            obtain ⟨ev, en⟩ := e3
            have hn := hnew (by simpa using en)
            have hmv := HMV.out _ n d0.ti ⟨hn.1, hn.2.1⟩
            clear hn hnew HMV
            go_wp2_with fail
            refine hmv.mono ?_
            rintro e w3 ⟨rfl, ht, hk⟩
            have dv : w3.heap[w2.heap.size]? = some (.cells #[.int .i64 v, .int .i64 c] 116) := (hk.block _ (by simp) (by have := d0.pl; have := d0.bl; have := hsz.out; omega)).trans (heap_alloc_new _ _)
            have v0 := cell_blk dv 0
            have v1 := cell_blk dv 1
            simp only [List.getElem?_toArray, List.getElem?_cons_zero, List.getElem?_cons_succ] at v0 v1
            have dl := heap_lt dv
            obtain ⟨c0, c1, f0, f1, hF⟩ := (d0.moved ht hk).fin
            clear d0 hmv ht hk dv a0 a1 a2
            go_wp2
            refine bodyPost_ret (results_c (p := 6) (ty := 116) rfl _ _ (w.heap.size + 1) 116 _ (0, 0) _ rfl (hF _ _).1 Tryz.underlying116 rfl (by kernel_rfl)) rfl ⟨rfl, (hF _ _).2⟩
        · have HDO4 := HDO3.out
          rw [e2, if_pos rfl] at HDO4
          subst HDO4
          clear HDO3 e2 HNX HNW HMV
          obtain ⟨c0, c1, f0, f1, hF⟩ := d0.fin
          clear d0
          go_wp2
          refine bodyPost_ret (results_c (p := 6) (ty := 116) rfl _ _ (w.heap.size + 1) 116 _ (0, 0) _ rfl (hF _ _).1 Tryz.underlying116 rfl (by kernel_rfl)) rfl ⟨rfl, (hF _ _).2⟩
    · have HDO2 := HDO.out
      rw [e1, if_pos rfl] at HDO2
      subst HDO2
      clear HDO e1 HNX HNW HMV
      go_wp2_with fail
      refine (misplaced_any g k _).mono ?_
      rintro e w2 ⟨rfl, hB⟩
      obtain ⟨c0, c1, f0, f1, hF⟩ := (d0.below hB).fin
      clear hB d0 a0 a1 a2
      go_wp2
      refine bodyPost_ret (results_c (p := 6) (ty := 116) rfl _ _ (w.heap.size + 1) 116 _ (0, 0) _ rfl (hF _ _).1 Tryz.underlying116 rfl (by kernel_rfl)) rfl ⟨rfl, (hF _ _).2⟩
end Go.Proofs.YtfmljlflnpmceaaGreatDoor
