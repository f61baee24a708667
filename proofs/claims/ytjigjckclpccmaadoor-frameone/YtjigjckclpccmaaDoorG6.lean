/- FrameOne: a frame read, without data. -/
import Derived.Test.YtjigjckclpccmaaDoorG5
namespace Go.Proofs.YtjigjckclpccmaaDoor
open Go.RowKit
set_option linter.unusedVariables false
set_option linter.unusedSimpArgs false

set_option maxRecDepth 100000 in
set_option maxHeartbeats 8000000 in
theorem one_empty (b : ByteArray) (most : Int) (w : World) (hw : 1 ≤ w.heap.size) (hK : Kinds w) (hS : b.size ≤ 140737488355328) (f : Fr) (ps : List (Int × Int)) (N : Nat) (hN : numS (b.extract 0 3) = N) (hb : 9 + N ≤ b.size) (hN5 : N ≤ 65536) (hm : (N : Int) ≤ min (max most 16384) 65536) (hr : readS b most = ((f, ps), ((9 + N : Nat) : Int), 0, 0)) (hp : parseS (b.extract 0 (9 + N)) = ((f, ps), 0, 0)) (hde : f.data = ⟨#[]⟩) :
    Calls Tryd.prog 6 #[.string b, .int .i64 most] w fun e w' => e = .returned (.bool true) ∧ Below w.heap.size w w' := by
  have hKW : Hid (∀ W : World, Below w.heap.size w W → Kinds W ∧ 1 ≤ W.heap.size) := fun W hb => ⟨hK.of_eq (hb.block 0 (by omega)), Nat.le_trans hw hb.size⟩
  obtain ⟨hR, hsz, hby, hread, hfl, hdata, hd6, hp6⟩ := read_plain b most f ps N hN hb hN5 hm hp
  have HR : Hid (∀ W : World, Below w.heap.size w W → Calls Tryd.prog 13 #[.string b, .int .i64 most] W fun e w' => RPost W ((f, ps), ((9 + N : Nat) : Int), 0, 0) e w') := fun W hW => by rw [← hr]; exact read_any _ _ W (hKW.out _ hW).2 (hKW.out _ hW).1
  obtain ⟨M, hM⟩ : ∃ M : Nat, 9 + N = M := ⟨_, rfl⟩
  rw [hM] at HR hb hsz hread hdata
  obtain ⟨c, hc⟩ : ∃ c, asmB f ps = c := ⟨_, rfl⟩
  have HR2 : Hid (∀ W : World, Below w.heap.size w W → Calls Tryd.prog 13 #[.string c, .int .i64 most] W fun e w' => RPost W ((f, ps), (M : Int), 0, 0) e w') := fun W hW => by rw [← hread, ← hc]; exact read_any _ _ W (hKW.out _ hW).2 (hKW.out _ hW).1
  have HWR : Hid (∀ W : World, Below w.heap.size w W → ∀ p, PRow W p ps → Calls Tryd.prog 9 #[.agg (fv f p)] W fun e w' => e = .returned (.tuple #[.string c, .int .i64 0]) ∧ Below W.heap.size W w') := by
    intro W hW p hpr
    refine (write_any f ps p W (hKW.out _ hW).2 (hKW.out _ hW).1 hpr (by omega)).mono ?_
    rintro e w' ⟨v, rfl, hv, hb'⟩
    exact ⟨by rw [hv.1 hR (by omega), hc], hb'⟩
  rw [hc] at hsz hby
  have HBY : Hid (∀ i, i < 4 → byteAt c i = byteAt b i) := hby
  have HFL : Hid (bits .and .i64 (byteAt b 4 : Int) (kflags (min f.ty 10).toNat) = f.fl) := hfl
  have HDE : Hid (f.data = ⟨#[]⟩) := hde
  clear hde
  have HDA : Hid (f.data = ⟨#[]⟩ ∨ ∃ i, i + f.data.size ≤ (b.extract 9 M).size ∧ (b.extract 9 M).extract i (i + f.data.size) = f.data) := hdata
  have HRI : Hid (Right f ps) := hR
  have hM9 : 9 ≤ M := by omega
  have hM0 : ((M : Int) == 0) = false := by simp; omega
  have hM9i : ¬ (M : Int) < 9 := by omega
  have hMbi : ¬ (b.size : Int) < (M : Int) := by omega
  have hcs : (c.size : Int) = (M : Int) := by omega
  have HCS : Hid (c.size = M) := hsz
  clear hR hby hread hfl hdata hc hr hp hN hm hM hK hN5 hsz
  go_enter Tryd.func6, Tryd.ntmps6
  go_wp2_with fail
  refine (first_any _ (hKW.out _ (Below.refl _ _)).2 (hKW.out _ (Below.refl _ _)).1).mono ?_
  rintro e w1 ⟨rfl, hb1⟩
  go_wp2_with fail
  refine (HR.out _ hb1).mono ?_
  rintro e w2 ⟨r, rfl, r1, r2, r3⟩
  obtain ⟨rb, rc, rfl⟩ := r1.slice
  obtain ⟨m, hm⟩ : ∃ m, ps.length = m := ⟨_, rfl⟩
  simp only [hm] at r1 r2 ⊢
  have hB2 := hb1.trans (r3.mono hb1.size)
  have hB3 : Below w.heap.size w ((w2.alloc (.cells (fv f (.slice rb m rc)) 28)).alloc (.cells #[.int .i64 0, .int .i64 0] 31)) := (hB2.alloc hB2.size (.cells (fv f (.slice rb m rc)) 28)).alloc (by rw [size_al]; have := hB2.size; omega) (.cells #[.int .i64 0, .int .i64 0] 31)
  have h3 : OneS w w2.heap.size f (.slice rb m rc) ps ((w2.alloc (.cells (fv f (.slice rb m rc)) 28)).alloc (.cells #[.int .i64 0, .int .i64 0] 31)) :=
    ⟨by unfold FB; rw [heap_al, if_neg (by rw [size_al]; omega)]; exact heap_alloc_new w2 _, r1.below fun k _ hk => by rw [heap_al, if_neg (by rw [size_al]; omega), heap_al, if_neg (by omega)], hB3⟩
  have HM : Hid (ps.length = m) := hm
  obtain ⟨A, hA⟩ : ∃ A, w2.heap.size = A := ⟨_, rfl⟩
  rw [hA] at h3
  have hwA : w.heap.size ≤ A := by rw [← hA]; exact hB2.size
  clear r1 r2 r3 hm
  unfold fv
  go_wp2_with fail
  refine (HWR.out _ hB3 (.slice rb m rc) h3.2.1).mono ?_
  rintro e w3 ⟨rfl, hb3⟩
  have hS3 := h3.below hb3
  clear h3 hb3 hB3 hB2 hb1 HWR HR
  try rw [hA]
  obtain ⟨P, hP⟩ : ∃ P, P = OneS w A f (.slice rb m rc) ps := ⟨_, rfl⟩
  have hcells : Hid (∀ W, P W → W.cell? ⟨A, 0, none⟩ = some (.int .i64 f.ty) ∧ W.cell? ⟨A, 1, none⟩ = some (.int .i64 f.fl) ∧ W.cell? ⟨A, 2, none⟩ = some (.int .i64 f.st) ∧ W.cell? ⟨A, 3, none⟩ = some (.string f.data) ∧ W.cell? ⟨A, 4, none⟩ = some (.int .i64 f.pad) ∧ W.cell? ⟨A, 5, none⟩ = some (.int .i64 f.dep) ∧ W.cell? ⟨A, 6, none⟩ = some (.bool f.excl) ∧ W.cell? ⟨A, 7, none⟩ = some (.int .i64 f.wt) ∧ W.cell? ⟨A, 8, none⟩ = some (.int .i64 f.code) ∧ W.cell? ⟨A, 9, none⟩ = some (.int .i64 f.last) ∧ W.cell? ⟨A, 10, none⟩ = some (.slice rb m rc)) := fun W h => by subst hP; exact h.1.cells
  have hdr : Hid (∀ W, P W → P W.drew) := fun W h => by subst hP; exact h.below (Below.refl _ W).drew
  have hend : Hid (∀ W, P W → Below w.heap.size w W) := fun W h => by subst hP; exact h.2.2
  have hnext : Hid (∀ W W' : World, P W → Below W.heap.size W W' → P W') := fun W W' h hb => by subst hP; exact h.below hb
  have hrow : Hid (∀ W, P W → PRow W (.slice rb m rc) ps ∧ A < W.heap.size) := fun W h => by subst hP; exact ⟨h.2.1, h.1.lt⟩
  rw [← hP] at hS3
  clear hP
  have c17 : Hid (∀ W, P W → Calls Tryd.prog 17 #[.agg (fv f (.slice rb m rc))] W fun e w' => e = .returned (.agg (fv (wholeF f) (.slice rb m rc))) ∧ P w') := by
    intro W h
    have hw2 : 0 ≤ f.wt ∧ f.wt ≤ 256 := by
      have := HRI.out.body.1
      split at this
      · omega
      · omega
    refine (whole_any f rb m rc W hw2.1 hw2.2).mono ?_
    rintro e w' ⟨rfl, hb⟩
    exact ⟨rfl, hnext.out _ _ h hb⟩
  have c15 : Hid (f.data.size ≤ 60000 → m ≤ 2730 → ∀ W, P W → Calls Tryd.prog 15 #[.agg (fv (wholeF f) (.slice rb m rc))] W fun e w' => ∃ qb qc, e = .returned (.agg (fv f (.slice qb m qc))) ∧ PRow w' (.slice qb m qc) ps ∧ P w') := by
    intro hd hl W h
    refine (made_any (wholeF f) _ ps W (hrow.out _ h).1.isIn (by show f.data.size ≤ _; omega)).mono ?_
    rintro e w' ⟨q, rfl, q1, q2, q3⟩
    obtain ⟨e1, e2⟩ := made_whole f ps HRI.out hd (by rw [HM.out]; exact hl)
    rw [e2] at q1
    rw [e1]
    obtain ⟨qb, qc, rfl⟩ := q1.slice
    rw [HM.out] at q1 ⊢
    exact ⟨qb, qc, rfl, q1, hnext.out _ _ h q3⟩
  have c16 : Hid (∀ W (qb : Option Addr) (qc : Nat), P W → PRow W (.slice qb m qc) ps → Calls Tryd.prog 16 #[.agg (fv f (.slice rb m rc)), .agg (fv f (.slice qb m qc))] W fun e w' => e = .returned (.bool true) ∧ P w') := by
    intro W qb qc h hq
    refine (sameFrame_eq f W rb m rc qb m qc ps (hrow.out _ h).1 hq).mono ?_
    rintro e w' ⟨rfl, hb⟩
    exact ⟨rfl, hnext.out _ _ h hb⟩
  obtain ⟨d0, d1, d2, d3, d4, d5, d6, d7, d8, d9, d10⟩ := hcells.out _ hS3
  have hA3 := (hrow.out _ hS3).2
  unfold fv at *
  go_upto_region 9 with fail
  go_cut [99] from 14 (fun t wx => t = .bool false ∧ P wx)
  case first =>
    have hS3d := hdr.out _ hS3
    by_cases hd : f.data.size ≤ 60000
    · have hdi : decide ((f.data.size : Int) ≤ 60000) = true := decide_eq_true (by omega)
      by_cases hl : m ≤ 2730
      · have hli : decide ((m : Int) ≤ 2730) = true := decide_eq_true (by omega)
        have c15' : Hid _ := c15.out hd hl
        clear hd hl c15
        go_region_with (first | (go_at_call 17; refine (c17.out _ (by assumption)).mono ?_; rintro e w4 ⟨rfl, hS4⟩; obtain ⟨d0, d1, d2, d3, d4, d5, d6, d7, d8, d9, d10⟩ := hcells.out _ hS4) | (go_at_call 15; refine (c15'.out _ (by assumption)).mono ?_; rintro e w5 ⟨qb, qc, rfl, hq5, hS5⟩; obtain ⟨d0, d1, d2, d3, d4, d5, d6, d7, d8, d9, d10⟩ := hcells.out _ hS5) | (go_at_call 16; refine (c16.out _ _ _ (by assumption) (by assumption)).mono ?_; rintro e w6 ⟨rfl, hS6⟩; obtain ⟨d0, d1, d2, d3, d4, d5, d6, d7, d8, d9, d10⟩ := hcells.out _ hS6))
        all_goals
          go_wp2_with fail
          go_meet
          case rel => exact ⟨rfl, by assumption⟩
      · have hli : decide ((m : Int) ≤ 2730) = false := decide_eq_false (by omega)
        go_region
        all_goals
          go_wp2_with fail
          go_meet
          case rel => exact ⟨rfl, hS3d⟩
    · have hdi : decide ((f.data.size : Int) ≤ 60000) = false := decide_eq_false (by omega)
      go_region
      all_goals
        go_wp2_with fail
        go_meet
        case rel => exact ⟨rfl, hS3d⟩
  case rest =>
    obtain ⟨rfl, hS⟩ := hcut
    clear d0 d1 d2 d3 d4 d5 d6 d7 d8 d9 d10 c15 c17 hA3
    go_wp2_with fail
    go_loopw [10] (fun x wr => ∃ k : Nat, k ≤ 4 ∧ x = .int .i64 (k : Int) ∧ P wr) (fun x _ => 4 - (intOf x).toNat)
    case atStart => exact ⟨0, by omega, rfl, hS⟩
    case round =>
      obtain ⟨k, hk, rfl, hSr⟩ := hrel
      have hcs' := HCS.out
      by_cases hk4 : k < 4
      · have hkc : k < c.size := by omega
        have hkb : k < b.size := by omega
        have hbk : (c[k]'hkc).toNat = (b[k]'hkb).toNat := by
          have := HBY.out k hk4
          rwa [byteAt_eq _ _ hkc, byteAt_eq _ _ hkb] at this
        have hk4i : (k : Int) < 4 := by omega
        clear hcs'
        go_wp2_with fail
        go_region
        all_goals
          go_wp2_with fail
          go_roundw
          case rel => exact ⟨k + 1, by omega, by simp, hdr.out _ hSr⟩
          case measure => simp [intOf]; omega
      · obtain rfl : k = 4 := by omega
        go_wp2_with fail
        refine (HR2.out _ (hend.out _ hSr)).mono ?_
        rintro e w7 ⟨q, rfl, q1, q2, q3⟩
        obtain ⟨qb, qc, rfl⟩ := q1.slice
        have hm' := HM.out
        simp only [hm'] at q1 q2 ⊢
        clear hm' q2
        have hS7 := hnext.out _ _ hSr q3
        obtain ⟨D, hD⟩ : ∃ D, w7.heap.size = D := ⟨_, rfl⟩
        have hb8 : Below w7.heap.size w7 ((w7.alloc (.cells (fv f (.slice qb m qc)) 28)).alloc (.cells #[.int .i64 0, .int .i64 0] 31)) := ((Below.refl _ w7).alloc (Nat.le_refl _) _).alloc (by rw [size_al]; omega) _
        obtain ⟨Q, hQ⟩ : ∃ Q : World → Prop, Q = fun W => P W ∧ FB W D f (.slice qb m qc) ∧ W.heap[D + 1]? = some (.cells #[.int .i64 0, .int .i64 0] 31 (0, 0)) ∧ PRow W (.slice qb m qc) ps := ⟨_, rfl⟩
        have H0 : Q ((w7.alloc (.cells (fv f (.slice qb m qc)) 28)).alloc (.cells #[.int .i64 0, .int .i64 0] 31)) := by
          subst hQ
          refine ⟨hnext.out _ _ hS7 hb8, ?_, ?_, q1.below fun k _ hk => hb8.block k hk⟩
          · unfold FB; rw [← hD, heap_al, if_neg (by rw [size_al]; omega)]; exact heap_alloc_new w7 _
          · rw [← hD, heap_al, if_pos (by rw [size_al])]
        have hnQ : ∀ W W' : World, Q W → Below W.heap.size W W' → Q W' := fun W W' h hb => by
          subst hQ
          exact ⟨hnext.out _ _ h.1 hb, h.2.1.below hb, (hb.block _ (Array.getElem?_eq_some_iff.1 h.2.2.1).1).trans h.2.2.1, h.2.2.2.below fun k _ hk => hb.block k hk⟩
        have hdQ : Hid (∀ W, Q W → Q W.drew) := fun W h => hnQ _ _ h (Below.refl _ W).drew
        have heQ : Hid (∀ W, Q W → Below w.heap.size w W) := fun W h => by subst hQ; exact hend.out _ h.1
        have hfull : Hid (∀ W, Q W → (W.cell? ⟨A, 0, none⟩ = some (.int .i64 f.ty) ∧ W.cell? ⟨A, 1, none⟩ = some (.int .i64 f.fl) ∧ W.cell? ⟨A, 2, none⟩ = some (.int .i64 f.st) ∧ W.cell? ⟨A, 3, none⟩ = some (.string f.data) ∧ W.cell? ⟨A, 4, none⟩ = some (.int .i64 f.pad) ∧ W.cell? ⟨A, 5, none⟩ = some (.int .i64 f.dep) ∧ W.cell? ⟨A, 6, none⟩ = some (.bool f.excl) ∧ W.cell? ⟨A, 7, none⟩ = some (.int .i64 f.wt) ∧ W.cell? ⟨A, 8, none⟩ = some (.int .i64 f.code) ∧ W.cell? ⟨A, 9, none⟩ = some (.int .i64 f.last) ∧ W.cell? ⟨A, 10, none⟩ = some (.slice rb m rc)) ∧ (W.cell? ⟨D, 0, none⟩ = some (.int .i64 f.ty) ∧ W.cell? ⟨D, 1, none⟩ = some (.int .i64 f.fl) ∧ W.cell? ⟨D, 2, none⟩ = some (.int .i64 f.st) ∧ W.cell? ⟨D, 3, none⟩ = some (.string f.data) ∧ W.cell? ⟨D, 4, none⟩ = some (.int .i64 f.pad) ∧ W.cell? ⟨D, 5, none⟩ = some (.int .i64 f.dep) ∧ W.cell? ⟨D, 6, none⟩ = some (.bool f.excl) ∧ W.cell? ⟨D, 7, none⟩ = some (.int .i64 f.wt) ∧ W.cell? ⟨D, 8, none⟩ = some (.int .i64 f.code) ∧ W.cell? ⟨D, 9, none⟩ = some (.int .i64 f.last) ∧ W.cell? ⟨D, 10, none⟩ = some (.slice qb m qc)) ∧ (W.cell? ⟨D + 1, 0, none⟩ = some (.int .i64 0) ∧ W.cell? ⟨D + 1, 1, none⟩ = some (.int .i64 0)) ∧ Q W) := fun W h => by
          refine ⟨hcells.out _ (by subst hQ; exact h.1), ?_, ?_, h⟩
          · subst hQ; exact h.2.1.cells
          · subst hQ
            have e0 := cell_of_row _ _ 0 _ _ _ h.2.2.1
            have e1 := cell_of_row _ _ 1 _ _ _ h.2.2.1
            exact ⟨e0, e1⟩
        have q16 : Hid (∀ W, Q W → Calls Tryd.prog 16 #[.agg (fv f (.slice rb m rc)), .agg (fv f (.slice qb m qc))] W fun e w' => e = .returned (.bool true) ∧ Q w') := by
          intro W h
          refine (sameFrame_eq f W rb m rc qb m qc ps (hrow.out _ (by subst hQ; exact h.1)).1 (by subst hQ; exact h.2.2.2)).mono ?_
          rintro e w' ⟨rfl, hb⟩
          exact ⟨rfl, hnQ _ _ h hb⟩
        obtain ⟨KF, hKF⟩ : ∃ KF, kflags (min f.ty 10).toNat = KF := ⟨_, rfl⟩
        have q18 : Hid (∀ W, Q W → Calls Tryd.prog 18 #[.int .i64 f.ty] W fun e w' => e = .returned (.int .i64 KF) ∧ Q w') := by
          intro W h
          refine (flags_law f.ty HRI.out.ty0 W).mono ?_
          rintro e w' ⟨rfl, rfl⟩
          exact ⟨by rw [hKF], h⟩
        have h4b : 4 < b.size := by omega
        have hfl4 : bits .and .i64 ((b[4]'h4b).toNat : Int) KF = f.fl := by
          have := HFL.out
          rw [byteAt_eq _ _ h4b, hKF] at this
          exact this
        have hfl4' : bits .and .i64 (IntKind.i64.wrap ((b[4]'h4b).toNat : Int)) KF = f.fl := by rw [wraps_i64_63 _ (by omega) (by have := (b[4]'h4b).toNat_lt; omega)]; exact hfl4
        have h4bi : (4 : Int) < (b.size : Int) := by omega
        have h9M : (9 : Int) ≤ (M : Int) := by omega
        have hMb : (M : Int) ≤ (b.size : Int) := by omega
        try rw [hD]
        clear hQ hb8 q1 q3 hS7 hSr hcells hdr hnext hrow c16 HR2 HBY hcs' hKF hS hS3
        unfold fv at *
        have hE : f.data.toList.isEmpty = true := by rw [HDE.out]; simp [ByteArray.toList_eq]
        clear HDE HDA HFL
        go_wp2_with fail
        refine wp_region_held_drew (S := (fun W => (W.cell? ⟨A, 0, none⟩ = some (.int .i64 f.ty) ∧ W.cell? ⟨A, 1, none⟩ = some (.int .i64 f.fl) ∧ W.cell? ⟨A, 2, none⟩ = some (.int .i64 f.st) ∧ W.cell? ⟨A, 3, none⟩ = some (.string f.data) ∧ W.cell? ⟨A, 4, none⟩ = some (.int .i64 f.pad) ∧ W.cell? ⟨A, 5, none⟩ = some (.int .i64 f.dep) ∧ W.cell? ⟨A, 6, none⟩ = some (.bool f.excl) ∧ W.cell? ⟨A, 7, none⟩ = some (.int .i64 f.wt) ∧ W.cell? ⟨A, 8, none⟩ = some (.int .i64 f.code) ∧ W.cell? ⟨A, 9, none⟩ = some (.int .i64 f.last) ∧ W.cell? ⟨A, 10, none⟩ = some (.slice rb m rc)) ∧ (W.cell? ⟨D, 0, none⟩ = some (.int .i64 f.ty) ∧ W.cell? ⟨D, 1, none⟩ = some (.int .i64 f.fl) ∧ W.cell? ⟨D, 2, none⟩ = some (.int .i64 f.st) ∧ W.cell? ⟨D, 3, none⟩ = some (.string f.data) ∧ W.cell? ⟨D, 4, none⟩ = some (.int .i64 f.pad) ∧ W.cell? ⟨D, 5, none⟩ = some (.int .i64 f.dep) ∧ W.cell? ⟨D, 6, none⟩ = some (.bool f.excl) ∧ W.cell? ⟨D, 7, none⟩ = some (.int .i64 f.wt) ∧ W.cell? ⟨D, 8, none⟩ = some (.int .i64 f.code) ∧ W.cell? ⟨D, 9, none⟩ = some (.int .i64 f.last) ∧ W.cell? ⟨D, 10, none⟩ = some (.slice qb m qc)) ∧ (W.cell? ⟨D + 1, 0, none⟩ = some (.int .i64 0) ∧ W.cell? ⟨D + 1, 1, none⟩ = some (.int .i64 0)) ∧ Q W)) (by kernel_rfl) (hfull.out _ (hdQ.out _ H0)) (fun hHeld => ?_)
        refine wpAnyH_take (i := 0) (oi := { dst := some 118, op := Op.move (Operand.tmp 12), type := 3, pos := "outright.go:111", after := #[], guard := none }) (v := ?vv0) rfl (by kernel_rfl) (by kernel_rfl) (by kernel_rfl) (fun _ _ _ h => h) (Or.inl ⟨by rfl, ?hy0⟩) (by assumption) ?rest0
        case hy0 => (intro w hSw; (try dsimp only at hSw); go_simp; all_goals with_reducible rfl)
        try simp only [Act.put, List.setIfInBounds_toArray, List.set_cons_zero, List.set_cons_succ]
        refine wpAnyH_take (i := 1) (oi := { dst := some 119, op := Op.move (Operand.tmp 6), type := 3, pos := "outright.go:111", after := #[], guard := none }) (v := ?vv1) rfl (by kernel_rfl) (by kernel_rfl) (by kernel_rfl) (fun _ _ _ h => h) (Or.inl ⟨by rfl, ?hy1⟩) (by assumption) ?rest1
        case hy1 => (intro w hSw; (try dsimp only at hSw); go_simp; all_goals with_reducible rfl)
        try simp only [Act.put, List.setIfInBounds_toArray, List.set_cons_zero, List.set_cons_succ]
        refine wpAnyH_take (i := 2) (oi := { dst := some 120, op := Op.binOp BinOp.eql 3 (Operand.tmp 118) (Operand.tmp 119) 3, type := 4, pos := "outright.go:111", after := #[{ on := 0, ground := Ground.data }, { on := 1, ground := Ground.data }], guard := none }) (v := ?vv2) rfl (by kernel_rfl) (by kernel_rfl) (by kernel_rfl) (fun _ _ _ h => h) (Or.inl ⟨by rfl, ?hy2⟩) (by assumption) ?rest2
        case hy2 => (intro w hSw; (try dsimp only at hSw); go_simp; all_goals with_reducible rfl)
        try simp only [Act.put, List.setIfInBounds_toArray, List.set_cons_zero, List.set_cons_succ]
        refine wpAnyH_take (i := 3) (oi := { dst := some 121, op := Op.move (Operand.tmp 120), type := 4, pos := "outright.go:111", after := #[{ on := 2, ground := Ground.data }], guard := none }) (v := ?vv3) rfl (by kernel_rfl) (by kernel_rfl) (by kernel_rfl) (fun _ _ _ h => h) (Or.inl ⟨by rfl, ?hy3⟩) (by assumption) ?rest3
        case hy3 => (intro w hSw; (try dsimp only at hSw); go_simp; all_goals with_reducible rfl)
        try simp only [Act.put, List.setIfInBounds_toArray, List.set_cons_zero, List.set_cons_succ]
        refine wpAnyH_take (i := 4) (oi := { dst := some 122, op := Op.load 31 (Operand.tmp 13), type := 31, pos := "outright.go:111", after := #[{ on := 3, ground := Ground.guard }], guard := some (3, true) }) (v := ?vv4) rfl (by kernel_rfl) (by kernel_rfl) (by kernel_rfl) (fun _ _ _ h => h) (Or.inl ⟨by rfl, ?hy4⟩) (by assumption) ?rest4
        case hy4 => (intro w hSw; (try dsimp only at hSw); go_simp; all_goals with_reducible rfl)
        try simp only [Act.put, List.setIfInBounds_toArray, List.set_cons_zero, List.set_cons_succ]
        refine wpAnyH_take (i := 5) (oi := { dst := some 123, op := Op.build 31 #[], type := 31, pos := "outright.go:111", after := #[{ on := 3, ground := Ground.guard }], guard := some (3, true) }) (v := ?vv5) rfl (by kernel_rfl) (by kernel_rfl) (by kernel_rfl) (fun _ _ _ h => h) (Or.inl ⟨by rfl, ?hy5⟩) (by assumption) ?rest5
        case hy5 => (intro w hSw; (try dsimp only at hSw); go_simp; all_goals with_reducible rfl)
        try simp only [Act.put, List.setIfInBounds_toArray, List.set_cons_zero, List.set_cons_succ]
        refine wpAnyH_take (i := 6) (oi := { dst := some 124, op := Op.binOp BinOp.eql 31 (Operand.tmp 122) (Operand.tmp 123) 31, type := 4, pos := "outright.go:111", after := #[{ on := 4, ground := Ground.data }, { on := 5, ground := Ground.data }, { on := 3, ground := Ground.guard }], guard := some (3, true) }) (v := ?vv6) rfl (by kernel_rfl) (by kernel_rfl) (by kernel_rfl) (fun _ _ _ h => h) (Or.inl ⟨by rfl, ?hy6⟩) (by assumption) ?rest6
        case hy6 => (intro w hSw; (try dsimp only at hSw); go_simp; all_goals with_reducible rfl)
        try simp only [Act.put, List.setIfInBounds_toArray, List.set_cons_zero, List.set_cons_succ]
        refine wpAnyH_take (i := 7) (oi := { dst := some 125, op := Op.pick (Operand.tmp 121) (Operand.tmp 124) (Operand.const (Value.bool false)), type := 4, pos := "outright.go:111", after := #[{ on := 3, ground := Ground.data }, { on := 6, ground := Ground.data }], guard := none }) (v := ?vv7) rfl (by kernel_rfl) (by kernel_rfl) (by kernel_rfl) (fun _ _ _ h => h) (Or.inl ⟨by rfl, ?hy7⟩) (by assumption) ?rest7
        case hy7 => (intro w hSw; (try dsimp only at hSw); go_simp; all_goals with_reducible rfl)
        try simp only [Act.put, List.setIfInBounds_toArray, List.set_cons_zero, List.set_cons_succ]
        refine wpAnyH_take (i := 8) (oi := { dst := some 126, op := Op.move (Operand.tmp 125), type := 4, pos := "outright.go:111", after := #[{ on := 7, ground := Ground.data }, { on := 3, ground := Ground.chain }], guard := none }) (v := ?vv8) rfl (by kernel_rfl) (by kernel_rfl) (by kernel_rfl) (fun _ _ _ h => h) (Or.inl ⟨by rfl, ?hy8⟩) (by assumption) ?rest8
        case hy8 => (intro w hSw; (try dsimp only at hSw); go_simp; all_goals with_reducible rfl)
        try simp only [Act.put, List.setIfInBounds_toArray, List.set_cons_zero, List.set_cons_succ]
        refine wpAnyH_take (i := 9) (oi := { dst := some 127, op := Op.load 28 (Operand.tmp 5), type := 28, pos := "outright.go:111", after := #[{ on := 8, ground := Ground.guard }], guard := some (8, true) }) (v := ?vv9) rfl (by kernel_rfl) (by kernel_rfl) (by kernel_rfl) (fun _ _ _ h => h) (Or.inl ⟨by rfl, ?hy9⟩) (by assumption) ?rest9
        case hy9 => (intro w hSw; (try dsimp only at hSw); go_simp; all_goals with_reducible rfl)
        try simp only [Act.put, List.setIfInBounds_toArray, List.set_cons_zero, List.set_cons_succ]
        refine wpAnyH_take (i := 10) (oi := { dst := some 128, op := Op.load 28 (Operand.tmp 11), type := 28, pos := "outright.go:111", after := #[{ on := 8, ground := Ground.guard }], guard := some (8, true) }) (v := ?vv10) rfl (by kernel_rfl) (by kernel_rfl) (by kernel_rfl) (fun _ _ _ h => h) (Or.inl ⟨by rfl, ?hy10⟩) (by assumption) ?rest10
        case hy10 => (intro w hSw; (try dsimp only at hSw); go_simp; all_goals with_reducible rfl)
        try simp only [Act.put, List.setIfInBounds_toArray, List.set_cons_zero, List.set_cons_succ]
        refine wpAnyH_ready (rs := [11]) (by kernel_rfl) (by simp) ?_
        refine AllReadyH.cons (o := { dst := some 129, op := Op.call { callee := Callee.value (Operand.func 16), args := #[Operand.tmp 127, Operand.tmp 128], argTypes := #[28, 28] }, type := 4, pos := "outright.go:111", after := #[{ on := 9, ground := Ground.data }, { on := 10, ground := Ground.data }, { on := 8, ground := Ground.chain }, { on := 8, ground := Ground.guard }], guard := some (8, true) }) rfl (fun K hK => ?_) AllReadyH.nil
        go_simp
        refine (q16.out _ (And.right (And.right (And.right (by assumption))))).mono ?_
        rintro e' w9 ⟨rfl, hb9⟩
        go_wp2_with fail
        refine hK.out _ _ (hfull.out _ hb9) (fun hHeld9 => ?_)
        clear hK K
        try simp only [Act.put, List.setIfInBounds_toArray, List.set_cons_zero, List.set_cons_succ]
        refine wpAnyH_take (i := 12) (oi := { dst := some 130, op := Op.pick (Operand.tmp 126) (Operand.tmp 129) (Operand.const (Value.bool false)), type := 4, pos := "outright.go:111", after := #[{ on := 8, ground := Ground.data }, { on := 11, ground := Ground.data }], guard := none }) (v := ?vv12) rfl (by kernel_rfl) (by kernel_rfl) (by kernel_rfl) (fun _ _ _ h => h) (Or.inl ⟨by rfl, ?hy12⟩) (by assumption) ?rest12
        case hy12 => (intro w hSw; (try dsimp only at hSw); go_simp; all_goals with_reducible rfl)
        try simp only [Act.put, List.setIfInBounds_toArray, List.set_cons_zero, List.set_cons_succ]
        refine wpAnyH_take (i := 13) (oi := { dst := some 131, op := Op.move (Operand.tmp 130), type := 4, pos := "outright.go:111", after := #[{ on := 12, ground := Ground.data }, { on := 11, ground := Ground.chain }], guard := none }) (v := ?vv13) rfl (by kernel_rfl) (by kernel_rfl) (by kernel_rfl) (fun _ _ _ h => h) (Or.inl ⟨by rfl, ?hy13⟩) (by assumption) ?rest13
        case hy13 => (intro w hSw; (try dsimp only at hSw); go_simp; all_goals with_reducible rfl)
        try simp only [Act.put, List.setIfInBounds_toArray, List.set_cons_zero, List.set_cons_succ]
        refine wpAnyH_take (i := 14) (oi := { dst := some 132, op := Op.move (Operand.tmp 0), type := 9, pos := "outright.go:111", after := #[{ on := 13, ground := Ground.guard }], guard := some (13, true) }) (v := ?vv14) rfl (by kernel_rfl) (by kernel_rfl) (by kernel_rfl) (fun _ _ _ h => h) (Or.inl ⟨by rfl, ?hy14⟩) (by assumption) ?rest14
        case hy14 => (intro w hSw; (try dsimp only at hSw); go_simp; all_goals with_reducible rfl)
        try simp only [Act.put, List.setIfInBounds_toArray, List.set_cons_zero, List.set_cons_succ]
        refine wpAnyH_take (i := 15) (oi := { dst := some 133, op := Op.index 9 (Operand.tmp 132) (Operand.const (Value.int IntKind.i64 4)), type := 5, pos := "outright.go:111", after := #[{ on := 14, ground := Ground.data }, { on := 13, ground := Ground.guard }], guard := some (13, true) }) (v := ?vv15) rfl (by kernel_rfl) (by kernel_rfl) (by kernel_rfl) (fun _ _ _ h => h) (Or.inl ⟨by rfl, ?hy15⟩) (by assumption) ?rest15
        case hy15 => (intro w hSw; (try dsimp only at hSw); go_simp; all_goals with_reducible rfl)
        try simp only [Act.put, List.setIfInBounds_toArray, List.set_cons_zero, List.set_cons_succ]
        refine wpAnyH_take (i := 16) (oi := { dst := some 134, op := Op.convert 5 3 (Operand.tmp 133), type := 3, pos := "outright.go:111", after := #[{ on := 15, ground := Ground.data }, { on := 13, ground := Ground.guard }], guard := some (13, true) }) (v := ?vv16) rfl (by kernel_rfl) (by kernel_rfl) (by kernel_rfl) (fun _ _ _ h => h) (Or.inl ⟨by rfl, ?hy16⟩) (by assumption) ?rest16
        case hy16 => (intro w hSw; (try dsimp only at hSw); go_simp; all_goals with_reducible rfl)
        try simp only [Act.put, List.setIfInBounds_toArray, List.set_cons_zero, List.set_cons_succ]
        refine wpAnyH_take (i := 17) (oi := { dst := some 135, op := Op.fieldAddr 28 (Operand.tmp 5) 0, type := 0, pos := "outright.go:111", after := #[{ on := 13, ground := Ground.guard }], guard := some (13, true) }) (v := ?vv17) rfl (by kernel_rfl) (by kernel_rfl) (by kernel_rfl) (fun _ _ _ h => h) (Or.inl ⟨by rfl, ?hy17⟩) (by assumption) ?rest17
        case hy17 => (intro w hSw; (try dsimp only at hSw); go_simp; all_goals with_reducible rfl)
        try simp only [Act.put, List.setIfInBounds_toArray, List.set_cons_zero, List.set_cons_succ]
        refine wpAnyH_take (i := 18) (oi := { dst := some 136, op := Op.load 3 (Operand.tmp 135), type := 3, pos := "outright.go:111", after := #[{ on := 17, ground := Ground.data }, { on := 13, ground := Ground.guard }], guard := some (13, true) }) (v := ?vv18) rfl (by kernel_rfl) (by kernel_rfl) (by kernel_rfl) (fun _ _ _ h => h) (Or.inl ⟨by rfl, ?hy18⟩) (by assumption) ?rest18
        case hy18 => (intro w hSw; (try dsimp only at hSw); go_simp; all_goals with_reducible rfl)
        try simp only [Act.put, List.setIfInBounds_toArray, List.set_cons_zero, List.set_cons_succ]
        refine wpAnyH_take (i := 21) (oi := { dst := some 139, op := Op.fieldAddr 28 (Operand.tmp 5) 1, type := 0, pos := "outright.go:111", after := #[{ on := 13, ground := Ground.guard }], guard := some (13, true) }) (v := ?vv21) rfl (by kernel_rfl) (by kernel_rfl) (by kernel_rfl) (fun _ _ _ h => h) (Or.inl ⟨by rfl, ?hy21⟩) (by assumption) ?rest21
        case hy21 => (intro w hSw; (try dsimp only at hSw); go_simp; all_goals with_reducible rfl)
        try simp only [Act.put, List.setIfInBounds_toArray, List.set_cons_zero, List.set_cons_succ]
        refine wpAnyH_take (i := 22) (oi := { dst := some 140, op := Op.load 3 (Operand.tmp 139), type := 3, pos := "outright.go:111", after := #[{ on := 21, ground := Ground.data }, { on := 13, ground := Ground.guard }], guard := some (13, true) }) (v := ?vv22) rfl (by kernel_rfl) (by kernel_rfl) (by kernel_rfl) (fun _ _ _ h => h) (Or.inl ⟨by rfl, ?hy22⟩) (by assumption) ?rest22
        case hy22 => (intro w hSw; (try dsimp only at hSw); go_simp; all_goals with_reducible rfl)
        try simp only [Act.put, List.setIfInBounds_toArray, List.set_cons_zero, List.set_cons_succ]
        refine wpAnyH_ready (rs := [19]) (by kernel_rfl) (by simp) ?_
        refine AllReadyH.cons (o := { dst := some 137, op := Op.call { callee := Callee.value (Operand.func 18), args := #[Operand.tmp 136], argTypes := #[3] }, type := 3, pos := "outright.go:111", after := #[{ on := 18, ground := Ground.data }, { on := 13, ground := Ground.chain }, { on := 13, ground := Ground.guard }], guard := some (13, true) }) rfl (fun K hK => ?_) AllReadyH.nil
        go_simp
        refine (q18.out _ (And.right (And.right (And.right (by assumption))))).mono ?_
        rintro e' w10 ⟨rfl, hb10⟩
        go_wp2_with fail
        refine hK.out _ _ (hfull.out _ hb10) (fun hHeld10 => ?_)
        clear hK K
        try simp only [Act.put, List.setIfInBounds_toArray, List.set_cons_zero, List.set_cons_succ]
        refine wpAnyH_take (i := 20) (oi := { dst := some 138, op := Op.binOp BinOp.and 3 (Operand.tmp 134) (Operand.tmp 137) 3, type := 3, pos := "outright.go:111", after := #[{ on := 16, ground := Ground.data }, { on := 19, ground := Ground.data }, { on := 13, ground := Ground.guard }], guard := some (13, true) }) (v := ?vv20) rfl (by kernel_rfl) (by kernel_rfl) (by kernel_rfl) (fun _ _ _ h => h) (Or.inl ⟨by rfl, ?hy20⟩) (by assumption) ?rest20
        case hy20 => (intro w hSw; (try dsimp only at hSw); go_simp; all_goals with_reducible rfl)
        try simp only [Act.put, List.setIfInBounds_toArray, List.set_cons_zero, List.set_cons_succ]
        refine wpAnyH_take (i := 23) (oi := { dst := some 141, op := Op.binOp BinOp.eql 3 (Operand.tmp 138) (Operand.tmp 140) 3, type := 4, pos := "outright.go:111", after := #[{ on := 20, ground := Ground.data }, { on := 22, ground := Ground.data }, { on := 13, ground := Ground.guard }], guard := some (13, true) }) (v := ?vv23) rfl (by kernel_rfl) (by kernel_rfl) (by kernel_rfl) (fun _ _ _ h => h) (Or.inl ⟨by rfl, ?hy23⟩) (by assumption) ?rest23
        case hy23 => (intro w hSw; (try dsimp only at hSw); go_simp; all_goals with_reducible rfl)
        try simp only [Act.put, List.setIfInBounds_toArray, List.set_cons_zero, List.set_cons_succ]
        refine wpAnyH_take (i := 24) (oi := { dst := some 142, op := Op.pick (Operand.tmp 131) (Operand.tmp 141) (Operand.const (Value.bool false)), type := 4, pos := "outright.go:111", after := #[{ on := 13, ground := Ground.data }, { on := 23, ground := Ground.data }], guard := none }) (v := ?vv24) rfl (by kernel_rfl) (by kernel_rfl) (by kernel_rfl) (fun _ _ _ h => h) (Or.inl ⟨by rfl, ?hy24⟩) (by assumption) ?rest24
        case hy24 => (intro w hSw; (try dsimp only at hSw); go_simp; all_goals with_reducible rfl)
        try simp only [Act.put, List.setIfInBounds_toArray, List.set_cons_zero, List.set_cons_succ]
        refine wpAnyH_take (i := 25) (oi := { dst := some 143, op := Op.move (Operand.tmp 142), type := 4, pos := "outright.go:111", after := #[{ on := 24, ground := Ground.data }, { on := 19, ground := Ground.chain }], guard := none }) (v := ?vv25) rfl (by kernel_rfl) (by kernel_rfl) (by kernel_rfl) (fun _ _ _ h => h) (Or.inl ⟨by rfl, ?hy25⟩) (by assumption) ?rest25
        case hy25 => (intro w hSw; (try dsimp only at hSw); go_simp; all_goals with_reducible rfl)
        try simp only [Act.put, List.setIfInBounds_toArray, List.set_cons_zero, List.set_cons_succ]
        refine wpAnyH_take (i := 26) (oi := { dst := some 144, op := Op.fieldAddr 28 (Operand.tmp 5) 3, type := 0, pos := "outright.go:111", after := #[{ on := 25, ground := Ground.guard }], guard := some (25, true) }) (v := ?vv26) rfl (by kernel_rfl) (by kernel_rfl) (by kernel_rfl) (fun _ _ _ h => h) (Or.inl ⟨by rfl, ?hy26⟩) (by assumption) ?rest26
        case hy26 => (intro w hSw; (try dsimp only at hSw); go_simp; all_goals with_reducible rfl)
        try simp only [Act.put, List.setIfInBounds_toArray, List.set_cons_zero, List.set_cons_succ]
        refine wpAnyH_take (i := 27) (oi := { dst := some 145, op := Op.load 9 (Operand.tmp 144), type := 9, pos := "outright.go:111", after := #[{ on := 26, ground := Ground.data }, { on := 25, ground := Ground.guard }], guard := some (25, true) }) (v := ?vv27) rfl (by kernel_rfl) (by kernel_rfl) (by kernel_rfl) (fun _ _ _ h => h) (Or.inl ⟨by rfl, ?hy27⟩) (by assumption) ?rest27
        case hy27 => (intro w hSw; (try dsimp only at hSw); go_simp; all_goals with_reducible rfl)
        try simp only [Act.put, List.setIfInBounds_toArray, List.set_cons_zero, List.set_cons_succ]
        refine wpAnyH_take (i := 28) (oi := { dst := some 146, op := Op.binOp BinOp.eql 9 (Operand.tmp 145) (Operand.const (Value.string { data := #[] })) 9, type := 4, pos := "outright.go:111", after := #[{ on := 27, ground := Ground.data }, { on := 25, ground := Ground.guard }], guard := some (25, true) }) (v := ?vv28) rfl (by kernel_rfl) (by kernel_rfl) (by kernel_rfl) (fun _ _ _ h => h) (Or.inl ⟨by rfl, ?hy28⟩) (by assumption) ?rest28
        case hy28 => (intro w hSw; (try dsimp only at hSw); go_simp; all_goals with_reducible rfl)
        try simp only [Act.put, List.setIfInBounds_toArray, List.set_cons_zero, List.set_cons_succ]
        refine wpAnyH_take (i := 29) (oi := { dst := some 147, op := Op.move (Operand.tmp 146), type := 4, pos := "outright.go:111", after := #[{ on := 28, ground := Ground.data }, { on := 25, ground := Ground.chain }, { on := 25, ground := Ground.guard }], guard := some (25, true) }) (v := ?vv29) rfl (by kernel_rfl) (by kernel_rfl) (by kernel_rfl) (fun _ _ _ h => h) (Or.inl ⟨by rfl, ?hy29⟩) (by assumption) ?rest29
        case hy29 => (intro w hSw; (try dsimp only at hSw); go_simp; all_goals with_reducible rfl)
        try simp only [Act.put, List.setIfInBounds_toArray, List.set_cons_zero, List.set_cons_succ]
        refine wpAnyH_take (i := 30) (oi := { dst := some 148, op := Op.move (Operand.tmp 0), type := 9, pos := "outright.go:111", after := #[{ on := 29, ground := Ground.guard }], guard := some (29, false) }) (v := undef) rfl (by kernel_rfl) (by kernel_rfl) (by kernel_rfl) (fun _ _ _ h => h) (Or.inr ⟨by rfl, rfl⟩) (by assumption) ?rest30
        try simp only [Act.put, List.setIfInBounds_toArray, List.set_cons_zero, List.set_cons_succ]
        refine wpAnyH_take (i := 31) (oi := { dst := some 149, op := Op.move (Operand.tmp 6), type := 3, pos := "outright.go:111", after := #[{ on := 29, ground := Ground.guard }], guard := some (29, false) }) (v := undef) rfl (by kernel_rfl) (by kernel_rfl) (by kernel_rfl) (fun _ _ _ h => h) (Or.inr ⟨by rfl, rfl⟩) (by assumption) ?rest31
        try simp only [Act.put, List.setIfInBounds_toArray, List.set_cons_zero, List.set_cons_succ]
        refine wpAnyH_take (i := 33) (oi := { dst := some 151, op := Op.fieldAddr 28 (Operand.tmp 5) 3, type := 0, pos := "outright.go:111", after := #[{ on := 29, ground := Ground.guard }], guard := some (29, false) }) (v := undef) rfl (by kernel_rfl) (by kernel_rfl) (by kernel_rfl) (fun _ _ _ h => h) (Or.inr ⟨by rfl, rfl⟩) (by assumption) ?rest33
        try simp only [Act.put, List.setIfInBounds_toArray, List.set_cons_zero, List.set_cons_succ]
        refine wpAnyH_take (i := 34) (oi := { dst := some 152, op := Op.load 9 (Operand.tmp 151), type := 9, pos := "outright.go:111", after := #[{ on := 33, ground := Ground.data }, { on := 29, ground := Ground.guard }], guard := some (29, false) }) (v := undef) rfl (by kernel_rfl) (by kernel_rfl) (by kernel_rfl) (fun _ _ _ h => h) (Or.inr ⟨by rfl, rfl⟩) (by assumption) ?rest34
        try simp only [Act.put, List.setIfInBounds_toArray, List.set_cons_zero, List.set_cons_succ]
        refine wpAnyH_take (i := 32) (oi := { dst := some 150, op := Op.slice 9 (Operand.tmp 148) (some (Operand.const (Value.int IntKind.i64 9))) (some (Operand.tmp 149)) none, type := 9, pos := "outright.go:111", after := #[{ on := 30, ground := Ground.data }, { on := 31, ground := Ground.data }, { on := 29, ground := Ground.guard }], guard := some (29, false) }) (v := undef) rfl (by kernel_rfl) (by kernel_rfl) (by kernel_rfl) (fun _ _ _ h => h) (Or.inr ⟨by rfl, rfl⟩) (by assumption) ?rest32
        try simp only [Act.put, List.setIfInBounds_toArray, List.set_cons_zero, List.set_cons_succ]
        refine wpAnyH_ready (rs := [35]) (by kernel_rfl) (by simp) ?_
        refine AllReadyH.cons (o := { dst := some 153, op := Op.call { callee := Callee.value (Operand.func 19), args := #[Operand.tmp 150, Operand.tmp 152], argTypes := #[9, 9] }, type := 4, pos := "outright.go:111", after := #[{ on := 32, ground := Ground.data }, { on := 34, ground := Ground.data }, { on := 29, ground := Ground.chain }, { on := 29, ground := Ground.guard }], guard := some (29, false) }) rfl (fun K hK => ?_) AllReadyH.nil
        go_simp
        refine hK.out _ _ (by assumption) (fun _ => ?_)
        clear hK K
        try simp only [Act.put, List.setIfInBounds_toArray, List.set_cons_zero, List.set_cons_succ]
        refine wpAnyH_take (i := 36) (oi := { dst := some 154, op := Op.pick (Operand.tmp 147) (Operand.const (Value.bool true)) (Operand.tmp 153), type := 4, pos := "outright.go:111", after := #[{ on := 29, ground := Ground.data }, { on := 35, ground := Ground.data }, { on := 25, ground := Ground.guard }], guard := some (25, true) }) (v := ?vv36) rfl (by kernel_rfl) (by kernel_rfl) (by kernel_rfl) (fun _ _ _ h => h) (Or.inl ⟨by rfl, ?hy36⟩) (by assumption) ?rest36
        case hy36 => (intro w hSw; (try dsimp only at hSw); go_simp; all_goals with_reducible rfl)
        try simp only [Act.put, List.setIfInBounds_toArray, List.set_cons_zero, List.set_cons_succ]
        refine wpAnyH_take (i := 37) (oi := { dst := some 155, op := Op.pick (Operand.tmp 143) (Operand.tmp 154) (Operand.const (Value.bool false)), type := 4, pos := "outright.go:111", after := #[{ on := 25, ground := Ground.data }, { on := 36, ground := Ground.data }], guard := none }) (v := ?vv37) rfl (by kernel_rfl) (by kernel_rfl) (by kernel_rfl) (fun _ _ _ h => h) (Or.inl ⟨by rfl, ?hy37⟩) (by assumption) ?rest37
        case hy37 => (intro w hSw; (try dsimp only at hSw); go_simp; all_goals with_reducible rfl)
        try simp only [Act.put, List.setIfInBounds_toArray, List.set_cons_zero, List.set_cons_succ]
        refine wpAnyH_take (i := 38) (oi := { dst := some 4, op := Op.assign (Operand.tmp 155), type := 4, pos := "outright.go:111", after := #[{ on := 37, ground := Ground.data }, { on := 35, ground := Ground.chain }, { on := 0, ground := Ground.phase }, { on := 1, ground := Ground.phase }, { on := 2, ground := Ground.phase }, { on := 3, ground := Ground.phase }, { on := 4, ground := Ground.phase }, { on := 5, ground := Ground.phase }, { on := 6, ground := Ground.phase }, { on := 7, ground := Ground.phase }, { on := 8, ground := Ground.phase }, { on := 9, ground := Ground.phase }, { on := 10, ground := Ground.phase }, { on := 11, ground := Ground.phase }, { on := 12, ground := Ground.phase }, { on := 13, ground := Ground.phase }, { on := 14, ground := Ground.phase }, { on := 15, ground := Ground.phase }, { on := 16, ground := Ground.phase }, { on := 17, ground := Ground.phase }, { on := 18, ground := Ground.phase }, { on := 19, ground := Ground.phase }, { on := 20, ground := Ground.phase }, { on := 21, ground := Ground.phase }, { on := 22, ground := Ground.phase }, { on := 23, ground := Ground.phase }, { on := 24, ground := Ground.phase }, { on := 25, ground := Ground.phase }, { on := 26, ground := Ground.phase }, { on := 27, ground := Ground.phase }, { on := 28, ground := Ground.phase }, { on := 29, ground := Ground.phase }, { on := 30, ground := Ground.phase }, { on := 31, ground := Ground.phase }, { on := 32, ground := Ground.phase }, { on := 33, ground := Ground.phase }, { on := 34, ground := Ground.phase }, { on := 35, ground := Ground.phase }, { on := 36, ground := Ground.phase }, { on := 37, ground := Ground.phase }], guard := none }) (v := ?vv38) rfl (by kernel_rfl) (by kernel_rfl) (by kernel_rfl) (fun _ _ _ h => h) (Or.inl ⟨by rfl, ?hy38⟩) (by assumption) ?rest38
        case hy38 => (intro w hSw; (try dsimp only at hSw); go_simp; all_goals with_reducible rfl)
        try simp only [Act.put, List.setIfInBounds_toArray, List.set_cons_zero, List.set_cons_succ]
        refine wpAnyH_done (by kernel_rfl) ?_ _
        go_wp2_with fail
        go_ret
        exact ⟨rfl, heQ.out _ hHeld10.2.2.2⟩
end Go.Proofs.YtjigjckclpccmaaDoor
