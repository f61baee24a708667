/- FrameBack, walked. -/
import Derived.Test.YtjigjckclpccmaaDoorG2
import Derived.Test.YtjigjckclpccmaaDoorR3
namespace Go.Proofs.YtjigjckclpccmaaDoor
open Go.RowKit
set_option linter.unusedVariables false
set_option linter.unusedSimpArgs false

/-- uint(cut) % uint(len(b)) -/
def cutS (cut : Int) (n : Nat) : Nat := ((IntKind.u64.wrap cut).tmod (n : Int)).toNat
theorem cutS_lt (cut : Int) (n : Nat) (h : 0 < n) : cutS cut n < n ∧ (IntKind.u64.wrap cut).tmod (n : Int) = (cutS cut n : Int) := by
  have h0 : 0 ≤ IntKind.u64.wrap cut := by rw [IntKind.wrap_u64]; omega
  unfold cutS
  rw [Int.tmod_eq_emod_of_nonneg h0]
  have h1 := Int.emod_lt_of_pos (IntKind.u64.wrap cut) (show (0 : Int) < (n : Int) by omega)
  have h2 := Int.emod_nonneg (IntKind.u64.wrap cut) (show (n : Int) ≠ 0 by omega)
  omega

set_option maxRecDepth 100000 in
set_option maxHeartbeats 8000000 in
theorem frameBack_any (f : Fr) (pb : Option Addr) (pl pc : Nat) (ps : List (Int × Int)) (behind : ByteArray) (cut : Int) (w : World) (hw : 1 ≤ w.heap.size) (hK : Kinds w) (hp : PIn w (.slice pb pl pc) ps) (hDb : f.data.size ≤ 140737488355328) (hSb : behind.size ≤ 140737488355328) :
    Calls Tryd.prog 4 #[.agg (fv f (.slice pb pl pc)), .string behind, .int .i64 cut] w fun e w' => e = .returned (.bool true) ∧ Below w.heap.size w w' := by
  have hKW : Hid (∀ W : World, Below w.heap.size w W → Kinds W ∧ 1 ≤ W.heap.size) := fun W hb => ⟨hK.of_eq (hb.block 0 (by omega)), Nat.le_trans hw hb.size⟩
  have HP : Hid (PIn w (.slice pb pl pc) ps) := hp
  have HD : Hid (f.data.size ≤ 140737488355328) := hDb
  clear hK hp hDb
  unfold fv
  go_enter Tryd.func4, Tryd.ntmps4
  go_wp2_with fail
  have hbox := (Below.refl _ w).alloc (Nat.le_refl _) (.cells (fv f (.slice pb pl pc)) 28)
  refine (first_any _ (hKW.out _ hbox).2 (hKW.out _ hbox).1).mono ?_
  rintro e w1 ⟨rfl, hb1'⟩
  have hw1 : Below w.heap.size w w1 := hbox.trans (hb1'.mono (by rw [size_al]; omega))
  have hF1 : FB w1 w.heap.size f (.slice pb pl pc) := (hb1'.block _ (by rw [size_al]; omega)).trans (heap_alloc_new w _)
  obtain ⟨d0, d1, d2, d3, d4, d5, d6, d7, d8, d9, d10⟩ := hF1.cells
  have hP1 := HP.out.below hw1
  clear hF1 hbox hb1'
  replace hP1 : Hid (PIn w1 (.slice pb pl pc) ps) := hP1
  go_wp2_with fail
  refine (made_any f _ ps w1 hP1.out HD.out).mono ?_
  rintro e w2 ⟨q, rfl, b1, b2, b3⟩
  obtain ⟨qb, qc, rfl⟩ := b1.slice
  have hR := made_right f ps
  have hsm := (made_small f ps).1
  obtain ⟨qs, hqs⟩ : ∃ qs, madeP (mT f) (mX f) ps = qs := ⟨_, rfl⟩
  rw [hqs] at b1 hR hsm ⊢
  obtain ⟨g, hg⟩ : ∃ g, madeS f = g := ⟨_, rfl⟩
  rw [hg] at hR hsm ⊢
  have hw2 : Below w.heap.size w w2 := hw1.trans (b3.mono hw1.size)
  clear hg hqs d0 d1 d2 d3 d4 d5 d6 d7 d8 d9 d10 b2 b3 hP1 hw1
  have h9 := asmB_size g qs
  obtain ⟨n, hn⟩ : ∃ n, qs.length = n := ⟨_, rfl⟩
  rw [hn] at b1 ⊢
  have hB3 : Below w.heap.size w (w2.alloc (.cells (fv g (.slice qb n qc)) 28)) := hw2.alloc hw2.size _
  have hwrite := write_any g qs _ _ (hKW.out _ hB3).2 (hKW.out _ hB3).1 (b1.below (w' := w2.alloc (.cells (fv g (.slice qb n qc)) 28)) fun k _ hk => by rw [heap_al, if_neg (by omega)]) (by omega)
  have hread1 : ∀ W : World, Below w.heap.size w W → Calls Tryd.prog 13 #[.string (asmB g qs ++ behind), .int .i64 65536] W fun e w' => RPost W ((g, qs), ((asmB g qs).size : Int), 0, 0) e w' := fun W hW => by
    rw [← read_app g qs hR behind 65536 (by omega) (by omega)]
    exact read_any _ _ W (hKW.out _ hW).2 (hKW.out _ hW).1
  have hread2 : ∀ (c : Nat), c < (asmB g qs).size → ∀ W : World, Below w.heap.size w W → Calls Tryd.prog 13 #[.string ((asmB g qs).extract 0 c), .int .i64 65536] W fun e w' => RPost W ((Fr.zero, []), 0, 0, 0) e w' := fun c hc W hW => by
    rw [← read_cut g qs c hc 65536 (by omega) (by omega)]
    exact read_any _ _ W (hKW.out _ hW).2 (hKW.out _ hW).1
  have hread3 : ∀ W : World, Below w.heap.size w W → Calls Tryd.prog 13 #[.string ((asmB g qs).extract 0 9 ++ behind), .int .i64 16384] W fun e w' => RPost W (readS ((asmB g qs).extract 0 9 ++ behind) 16384) e w' := fun W hW => read_any _ _ W (hKW.out _ hW).2 (hKW.out _ hW).1
  have hlong : 16393 < (asmB g qs).size → readS ((asmB g qs).extract 0 9 ++ behind) 16384 = ((Fr.zero, []), 0, 6, 0) := fun h => read_head_long g qs behind (by omega) (by omega)
  have hmore : ¬ 16393 < (asmB g qs).size → behind.size < (asmB g qs).size - 9 → readS ((asmB g qs).extract 0 9 ++ behind) 16384 = ((Fr.zero, []), 0, 0, 0) := fun h h' => read_head_more g qs behind (by omega) (by omega) (by omega)
  obtain ⟨b, hb⟩ : ∃ b, asmB g qs = b := ⟨_, rfl⟩
  have hbs : 9 ≤ b.size := by rw [← hb]; omega
  rw [hb] at hread1 hread2 hread3 hlong hmore hsm
  replace hwrite : Hid (Calls Tryd.prog 9 #[.agg (fv g (.slice qb n qc))] (w2.alloc (.cells (fv g (.slice qb n qc)) 28)) fun e w' => e = .returned (.tuple #[.string b, .int .i64 0]) ∧ Below (w2.alloc (.cells (fv g (.slice qb n qc)) 28)).heap.size (w2.alloc (.cells (fv g (.slice qb n qc)) 28)) w') := by
    refine Calls.mono hwrite ?_
    rintro e w' ⟨v, rfl, hv, hb'⟩
    exact ⟨by rw [hv.1 hR (by rw [hb]; exact hsm), hb], hb'⟩
  obtain ⟨C, hC⟩ : ∃ C, b ++ behind = C := ⟨_, rfl⟩
  obtain ⟨C9, hC9⟩ : ∃ C9, b.extract 0 9 ++ behind = C9 := ⟨_, rfl⟩
  have hsum1 : ¬ (b.size + behind.size > 9223372036854775807) := by omega
  have hsum1' : b.size + behind.size ≤ 9223372036854775807 := by omega
  have hb9 : (b.extract 0 9).size = 9 := by rw [ByteArray.size_extract]; omega
  rw [hC] at hread1
  rw [hC9] at hread3 hlong hmore
  obtain ⟨c, hc⟩ : ∃ c, cutS cut b.size = c := ⟨_, rfl⟩
  obtain ⟨hcl, hct⟩ := cutS_lt cut b.size (by omega)
  rw [hc] at hcl hct
  have hcw : wrap64 (c : Int) = (c : Int) := wrap64_small _ (by omega) (by omega)
  have HR1 : Hid _ := hread1
  have HR2 : Hid _ := hread2 c hcl
  have HR3 : Hid _ := hread3
  have HLO : Hid _ := hlong
  have HMO : Hid _ := hmore
  have HR : Hid (Right g qs) := hR
  have HB1 : Hid (PRow w2 (.slice qb n qc) qs ∧ Below w.heap.size w w2) := ⟨b1, hw2⟩
  clear hread1 hread2 hread3 hlong hmore hR b1 hw2 hn h9 hb hB3
  unfold fv at *
  go_wp2_with fail
  refine hwrite.out.mono ?_
  rintro e w3 ⟨rfl, hb3⟩
  have hB3 : Below w.heap.size w w3 := (HB1.out.2.alloc HB1.out.2.size _).trans (hb3.mono (by rw [size_al]; have := HB1.out.2.size; omega))
  have hG3 : FB w3 w2.heap.size g (.slice qb n qc) := (hb3.block _ (by rw [size_al]; omega)).trans (heap_alloc_new w2 _)
  have hP3 : PRow w3 (.slice qb n qc) qs := HB1.out.1.below fun k _ hk => (hb3.block k (by rw [size_al]; omega)).trans (by rw [heap_al, if_neg (by omega)])
  clear hb3 hwrite HB1
  have hb9i : ¬ (b.size : Int) < 9 := by omega
  go_wp2_with fail
  refine (HR1.out _ hB3).mono ?_
  rintro e w4 ⟨r, rfl, r1, r2, r3⟩
  obtain ⟨rb, rc, rfl⟩ := r1.slice
  obtain ⟨m, hm⟩ : ∃ m, qs.length = m := ⟨_, rfl⟩
  simp only [hm] at r1 r2 ⊢
  have hB4 : Below w.heap.size w w4 := hB3.trans (r3.mono hB3.size)
  have hG4 : FB w4 w2.heap.size g (.slice qb n qc) := hG3.below r3
  have hP4 : PRow w4 (.slice qb n qc) qs := hP3.below fun k _ hk => r3.block k hk
  obtain ⟨d0, d1, d2, d3, d4, d5, d6, d7, d8, d9, d10⟩ := hG4.cells
  have hl4 : w2.heap.size < w4.heap.size := hG4.lt
  clear hG3 hP3 r2 r3 hB3 HR1 hm
  replace hG4 : Hid _ := hG4
  unfold fv
  go_wp2_with fail
  have hP5 : PRow ((w4.alloc (.cells (fv g (.slice rb m rc)) 28)).alloc (.cells #[.int .i64 0, .int .i64 0] 31)) (.slice qb n qc) qs := hP4.below fun k _ hk => by rw [heap_al, if_neg (by rw [size_al]; omega), heap_al, if_neg (by omega)]
  have hr5 : PRow ((w4.alloc (.cells (fv g (.slice rb m rc)) 28)).alloc (.cells #[.int .i64 0, .int .i64 0] 31)) (.slice rb m rc) qs := r1.below fun k _ hk => by rw [heap_al, if_neg (by rw [size_al]; omega), heap_al, if_neg (by omega)]
  refine (sameFrame_eq g _ qb n qc rb m rc qs hP5 hr5).mono ?_
  rintro e w5 ⟨rfl, hb5⟩
  have hB5 : Below w.heap.size w w5 := ((hB4.alloc hB4.size _).alloc (by rw [size_al]; have := hB4.size; omega) _).trans (hb5.mono (by simp only [size_al]; have := hB4.size; omega))
  have hG5 : FB w5 w4.heap.size g (.slice rb m rc) := (hb5.block _ (by simp only [size_al]; omega)).trans (by rw [heap_al, if_neg (by rw [size_al]; omega)]; exact heap_alloc_new w4 _)
  have hX5 : w5.heap[w4.heap.size + 1]? = some (.cells #[.int .i64 0, .int .i64 0] 31 (0, 0)) := (hb5.block _ (by simp only [size_al]; omega)).trans (by rw [heap_al, if_pos (by rw [size_al])])
  have hw4 : w.heap.size ≤ w4.heap.size := hB4.size
  clear hP5 hr5 hb5 d0 d1 d2 d3 d4 d5 d6 d7 d8 d9 d10 hG4 hP4 r1 hB4
  replace hG5 : Hid _ := hG5
  replace hX5 : Hid _ := hX5
  have hci : (c : Int) ≤ (b.size : Int) := by omega
  go_upto_region 11 with fail
  go_cut [11] from 13 (fun x wx => ∃ zb zc, x = .int .i64 0 ∧ FB wx w4.heap.size Fr.zero (.slice zb 0 zc) ∧ PRow wx (.slice zb 0 zc) [] ∧ wx.heap[w4.heap.size + 1]? = some (.cells #[.int .i64 0, .int .i64 0] 31 (0, 0)) ∧ Below w.heap.size w wx)
  case first =>
    go_wp2_with fail
    refine (HR2.out _ hB5).mono ?_
    rintro e w6 ⟨z, rfl, z1, z2, z3⟩
    obtain ⟨zb, zc, rfl⟩ := z1.slice
    have hG6 : FB w6 w4.heap.size g (.slice rb m rc) := FB.below hG5.out z3
    have hX6 : w6.heap[w4.heap.size + 1]? = some (.cells #[.int .i64 0, .int .i64 0] 31 (0, 0)) := (z3.block _ (Array.getElem?_eq_some_iff.1 hX5.out).1).trans hX5.out
    have hB6 : Below w.heap.size w w6 := hB5.trans (z3.mono hB5.size)
    have h5l : w4.heap.size + 1 < w5.heap.size := (Array.getElem?_eq_some_iff.1 hX5.out).1
    have hfin := setsGX w6 w4.heap.size (w4.heap.size + 1) (by omega) g Fr.zero (.slice rb m rc) (.slice zb 0 zc) 0 0 0 0 hG6 hX6
    have hz0 : Hid (PRow w6 (.slice zb 0 zc) [] ∧ ∀ k, (Value.slice zb 0 zc).ownBlock = some k → w4.heap.size + 1 < k) := ⟨z1, fun k hk => by have := z2 k hk; omega⟩
    obtain ⟨y0, y1, y2, y3, y4, y5, y6, y7, y8, y9, y10⟩ := hG6.frozens
    obtain ⟨d0, d1, d2, d3, d4, d5, d6, d7, d8, d9, d10⟩ := hG6.cells
    have e0 := cell_of_row _ _ 0 _ _ _ hX6
    have e1 := cell_of_row _ _ 1 _ _ _ hX6
    have e2 : w6.frozen? ⟨w4.heap.size + 1, 0, none⟩ = false := frozen_row hX6 0
    have e3 : w6.frozen? ⟨w4.heap.size + 1, 1, none⟩ = false := frozen_row hX6 1
    simp only [List.getElem?_toArray, List.getElem?_cons_succ, List.getElem?_cons_zero] at e0 e1
    have l6 : w4.heap.size < w6.heap.size := hG6.lt
    have l7 : w4.heap.size + 1 < w6.heap.size := (Array.getElem?_eq_some_iff.1 hX6).1
    simp only [List.length_nil]
    unfold fv Fr.zero
    replace hfin : Hid _ := hfin
    clear hG6 hX6 z1 z2 z3 hG5 hX5
    go_wp2_with fail
    go_meet
    case rel =>
      obtain ⟨f1, f2, f3, f4⟩ := hfin.out
      have f5 := f4 w.heap.size hw4 (by omega)
      simp only [sets, fsets, Fr.zero, List.foldl_cons, List.foldl_nil] at f1 f2 f3 f5
      exact ⟨zb, zc, rfl, f1, hz0.out.1.below fun k hk _ => f3 k (by have := hz0.out.2 k hk; omega) (by have := hz0.out.2 k hk; omega), f2, hB6.trans f5⟩
  case rest =>
    obtain ⟨zb, zc, rfl, k1, k2, k3, k4⟩ := hcut
    obtain ⟨d0, d1, d2, d3, d4, d5, d6, d7, d8, d9, d10⟩ := k1.cells
    have e0 := cell_of_row _ _ 0 _ _ _ k3
    have e1 := cell_of_row _ _ 1 _ _ _ k3
    simp only [Fr.zero, List.getElem?_toArray, List.getElem?_cons_succ, List.getElem?_cons_zero] at e0 e1 d0 d1 d2 d3 d4 d5 d6 d7 d8 d9 d10
    clear hG5 hX5
    replace k1 : Hid _ := k1
    replace k3 : Hid _ := k3
    go_wp2_with fail
    refine (sameFrame_eq Fr.zero _ zb 0 zc none 0 0 [] k2 (PRow.nil _)).mono ?_
    rintro e w7 ⟨rfl, hb7⟩
    have hG7 : FB w7 w4.heap.size Fr.zero (.slice zb 0 zc) := FB.below k1.out hb7
    have hX7 : w7.heap[w4.heap.size + 1]? = some (.cells #[.int .i64 0, .int .i64 0] 31 (0, 0)) := (hb7.block _ (Array.getElem?_eq_some_iff.1 k3.out).1).trans k3.out
    have hB7 : Below w.heap.size w w7 := k4.trans (hb7.mono k4.size)
    clear k1 k2 k3 k4 hb7 d0 d1 d2 d3 d4 d5 d6 d7 d8 d9 d10 e0 e1
    replace hG7 : Hid _ := hG7
    replace hX7 : Hid _ := hX7
    obtain ⟨⟨⟨f', ps'⟩, n', c', x'⟩, hres⟩ : ∃ res, readS C9 16384 = res := ⟨_, rfl⟩
    rw [hres] at HR3 HLO HMO
    clear hres
    have hsum2 : ¬ ((b.extract 0 9).size + behind.size > 9223372036854775807) := by omega
    have hsum2' : (b.extract 0 9).size + behind.size ≤ 9223372036854775807 := by omega
    have h9i : (9 : Int) ≤ (b.size : Int) := by omega
    go_upto_region 14 with fail
    go_cut [11] from 13 (fun x wx => ∃ zb zl zc, x = .int .i64 n' ∧ FB wx w4.heap.size f' (.slice zb zl zc) ∧ PRow wx (.slice zb zl zc) ps' ∧ wx.heap[w4.heap.size + 1]? = some (.cells #[.int .i64 c', .int .i64 x'] 31 (0, 0)) ∧ Below w.heap.size w wx)
    case first =>
      go_wp2_with fail
      refine (HR3.out _ hB7).mono ?_
      rintro e w6 ⟨z, rfl, z1, z2, z3⟩
      obtain ⟨zb', zc', rfl⟩ := z1.slice
      have hG6 : FB w6 w4.heap.size Fr.zero (.slice zb 0 zc) := FB.below hG7.out z3
      have hX6 : w6.heap[w4.heap.size + 1]? = some (.cells #[.int .i64 0, .int .i64 0] 31 (0, 0)) := (z3.block _ (Array.getElem?_eq_some_iff.1 hX7.out).1).trans hX7.out
      have hB6 : Below w.heap.size w w6 := hB7.trans (z3.mono hB7.size)
      have h5l : w4.heap.size + 1 < w7.heap.size := (Array.getElem?_eq_some_iff.1 hX7.out).1
      obtain ⟨zl, hzl⟩ : ∃ zl, ps'.length = zl := ⟨_, rfl⟩
      simp only [hzl] at z1 z2 ⊢
      have hfin := setsGX w6 w4.heap.size (w4.heap.size + 1) (by omega) Fr.zero f' (.slice zb 0 zc) (.slice zb' zl zc') 0 0 c' x' hG6 hX6
      have hz0 : Hid (PRow w6 (.slice zb' zl zc') ps' ∧ ∀ k, (Value.slice zb' zl zc').ownBlock = some k → w4.heap.size + 1 < k) := ⟨z1, fun k hk => by have := z2 k hk; omega⟩
      obtain ⟨y0, y1, y2, y3, y4, y5, y6, y7, y8, y9, y10⟩ := hG6.frozens
      obtain ⟨d0, d1, d2, d3, d4, d5, d6, d7, d8, d9, d10⟩ := hG6.cells
      have e0 := cell_of_row _ _ 0 _ _ _ hX6
      have e1 := cell_of_row _ _ 1 _ _ _ hX6
      have e2 : w6.frozen? ⟨w4.heap.size + 1, 0, none⟩ = false := frozen_row hX6 0
      have e3 : w6.frozen? ⟨w4.heap.size + 1, 1, none⟩ = false := frozen_row hX6 1
      simp only [Fr.zero, List.getElem?_toArray, List.getElem?_cons_succ, List.getElem?_cons_zero] at e0 e1 d0 d1 d2 d3 d4 d5 d6 d7 d8 d9 d10
      have l6 : w4.heap.size < w6.heap.size := hG6.lt
      have l7 : w4.heap.size + 1 < w6.heap.size := (Array.getElem?_eq_some_iff.1 hX6).1
      unfold fv
      replace hfin : Hid _ := hfin
      clear hG6 hX6 z1 z2 z3 hG7 hX7 hzl
      go_wp2_with fail
      go_meet
      case rel =>
        obtain ⟨f1, f2, f3, f4⟩ := hfin.out
        have f5 := f4 w.heap.size hw4 (by omega)
        simp only [sets, fsets, List.foldl_cons, List.foldl_nil] at f1 f2 f3 f5
        exact ⟨zb', zl, zc', rfl, f1, hz0.out.1.below fun k hk _ => f3 k (by have := hz0.out.2 k hk; omega) (by have := hz0.out.2 k hk; omega), f2, hB6.trans f5⟩
    case rest =>
      obtain ⟨zb', zl, zc', rfl, k1, k2, k3, k4⟩ := hcut
      obtain ⟨d0, d1, d2, d3, d4, d5, d6, d7, d8, d9, d10⟩ := k1.cells
      have e0 := cell_of_row _ _ 0 _ _ _ k3
      have e1 := cell_of_row _ _ 1 _ _ _ k3
      simp only [List.getElem?_toArray, List.getElem?_cons_succ, List.getElem?_cons_zero] at e0 e1
      clear hG7 hX7 k1 k3
      by_cases hlo : 16393 < b.size
      · have hx := HLO.out hlo
        simp only [Prod.mk.injEq] at hx
        obtain ⟨⟨rfl, rfl⟩, rfl, rfl, rfl⟩ := hx
        obtain rfl : zl = 0 := by
          obtain ⟨_, _, he⟩ := k2.slice
          injection he with _ h2 _
        have hloi : (16393 : Int) < (b.size : Int) := by omega
        simp only [Fr.zero] at d0 d1 d2 d3 d4 d5 d6 d7 d8 d9 d10
        go_wp2_with fail
        refine (sameFrame_eq Fr.zero _ zb' 0 zc' none 0 0 [] k2 (PRow.nil _)).mono ?_
        rintro e w8 ⟨rfl, hb8⟩
        have hfin := k4.trans (hb8.mono k4.size)
        go_wp2_with fail
        go_ret
        exact ⟨rfl, hfin⟩
      · have hloi : ¬ (16393 : Int) < (b.size : Int) := by omega
        by_cases hbe : b.size - 9 ≤ behind.size
        · have hbei : (b.size : Int) - 9 ≤ (behind.size : Int) := by omega
          go_wp2_with fail
          go_ret
          exact ⟨rfl, k4⟩
        · have hx := HMO.out hlo (by omega)
          simp only [Prod.mk.injEq] at hx
          obtain ⟨⟨rfl, rfl⟩, rfl, rfl, rfl⟩ := hx
          have hbei : ¬ (b.size : Int) - 9 ≤ (behind.size : Int) := by omega
          go_wp2_with fail
          go_ret
          exact ⟨rfl, k4⟩
end Go.Proofs.YtjigjckclpccmaaDoor
