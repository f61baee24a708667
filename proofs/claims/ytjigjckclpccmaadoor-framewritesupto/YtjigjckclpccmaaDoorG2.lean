/- FrameRefuses, walked. -/
import Derived.Test.YtjigjckclpccmaaDoorH4
import Derived.Test.YtjigjckclpccmaaDoorW1
import Derived.Test.YtjigjckclpccmaaDoorD2
namespace Go.Proofs.YtjigjckclpccmaaDoor
open Go.RowKit
set_option linter.unusedVariables false
set_option linter.unusedSimpArgs false

theorem asmB_le (f : Fr) (ps : List (Int × Int)) : (asmB f ps).size ≤ 300 + f.data.size + 6 * ps.length := by
  rw [asmB_size]
  obtain ⟨⟨k1, k2, k3, k4⟩, hkd⟩ : ∃ q, kd f.ty f.fl = q := ⟨_, rfl⟩
  have hp := payB_size k3 f ps
  cases hpad : padS f
  · rw [whole_no hkd hpad]
    omega
  · rw [whole_pad hkd hpad, List.length_append, List.length_append, List.length_replicate]
    simp
    omega

theorem madeP_length (T X : Int) (ps : List (Int × Int)) : (madeP T X ps).length ≤ 2730 := by
  unfold madeP
  split
  · exact fewS_length ps
  · simp

/-- a number out of its range -/
theorem not_right {f : Fr} {ps : List (Int × Int)} (h : f.ty ≥ 256 ∨ f.st ≥ 2147483648 ∨ f.st < 0 ∨ f.pad ≥ 256 ∨ f.wt ≥ 257 ∨ f.code ≥ 4294967296 ∨ f.last ≥ 2147483648 ∨ f.fl ≥ 256) : ¬ Right f ps := by
  intro hR
  have h1 := hR.ty1
  have h2 := kto_le (kiF f)
  have h3 := hR.st0
  have h4 := hR.st1
  have h5 := hR.fl1
  have h6 : f.pad < 256 := by
    have := hR.pad
    split at this
    · omega
    · omega
  obtain ⟨b1, b2, b3, _, _⟩ := hR.body
  have h7 : f.wt ≤ 256 := by
    split at b1
    · omega
    · omega
  have h8 : f.code < 4294967296 := by
    split at b2
    · omega
    · omega
  have h9 : f.last < 2147483648 := by
    split at b3
    · omega
    · omega
  omega

set_option maxRecDepth 100000 in
set_option maxHeartbeats 8000000 in
theorem frameRefuses_any (f : Fr) (pb : Option Addr) (pl pc : Nat) (ps : List (Int × Int)) (turn by' : Int) (w : World) (hw : 1 ≤ w.heap.size) (hK : Kinds w) (hp : PIn w (.slice pb pl pc) ps) (hDb : f.data.size ≤ 140737488355328) :
    Calls Tryd.prog 5 #[.agg (fv f (.slice pb pl pc)), .int .i64 turn, .int .i64 by'] w fun e w' => e = .returned (.bool true) ∧ Below w.heap.size w w' := by
  have hKW : Hid (∀ W : World, Below w.heap.size w W → Kinds W ∧ 1 ≤ W.heap.size) := fun W hb => ⟨hK.of_eq (hb.block 0 (by omega)), Nat.le_trans hw hb.size⟩
  have HP : Hid (PIn w (.slice pb pl pc) ps) := hp
  have HD : Hid (f.data.size ≤ 140737488355328) := hDb
  clear hK hp hDb
  obtain ⟨t, ht⟩ : ∃ t, turn % 8 = t := ⟨_, rfl⟩
  obtain ⟨b, hb⟩ : ∃ b, by' % 1099511627776 = b := ⟨_, rfl⟩
  have a1 : bits .and .i64 turn 7 = t := by rw [← ht]; exact and_any turn 3 (by decide)
  have a2 : bits .and .i64 by' 1099511627775 = b := by rw [← hb]; exact and_any by' 40 (by decide)
  have hb0 : 0 ≤ b := by omega
  have hb1 : b < 1099511627776 := by omega
  have ht8 : t = 0 ∨ t = 1 ∨ t = 2 ∨ t = 3 ∨ t = 4 ∨ t = 5 ∨ t = 6 ∨ t = 7 := by omega
  have c1 : wrap64 (256 + b) = 256 + b := wrap64_small _ (by omega) (by omega)
  have c2 : wrap64 (2147483648 + b) = 2147483648 + b := wrap64_small _ (by omega) (by omega)
  have c3 : wrap64 (-1 - b) = -1 - b := by unfold wrap64; omega
  have c4 : wrap64 (257 + b) = 257 + b := wrap64_small _ (by omega) (by omega)
  have c5 : wrap64 (4294967296 + b) = 4294967296 + b := wrap64_small _ (by omega) (by omega)
  clear ht hb
  have HT : Hid (t = 0 ∨ t = 1 ∨ t = 2 ∨ t = 3 ∨ t = 4 ∨ t = 5 ∨ t = 6 ∨ t = 7) := ht8
  clear ht8
  unfold fv
  go_enter Tryd.func5, Tryd.ntmps5
  go_wp2_with fail
  have hbox := (Below.refl _ w).alloc (Nat.le_refl _) (.cells (fv f (.slice pb pl pc)) 28)
  refine (first_any _ (hKW.out _ hbox).2 (hKW.out _ hbox).1).mono ?_
  rintro e w1 ⟨rfl, hb1'⟩
  have hw1 : Below w.heap.size w w1 := hbox.trans (hb1'.mono (by rw [size_al]; omega))
  have hF1 : FB w1 w.heap.size f (.slice pb pl pc) := (hb1'.block _ (by rw [size_al]; omega)).trans (heap_alloc_new w _)
  obtain ⟨d0, d1, d2, d3, d4, d5, d6, d7, d8, d9, d10⟩ := hF1.cells
  have hP1 := HP.out.below hw1
  clear hF1 hbox hb1'
  replace hP1 : Hid (PIn w1 (.slice pb pl pc) ps) := hP1
  go_wp2_with fail
  refine (made_any f _ ps w1 hP1.out HD.out).mono ?_
  rintro e w2 ⟨q, rfl, b1, b2, b3⟩
  obtain ⟨qb, qc, rfl⟩ := b1.slice
  obtain ⟨qs, hqs⟩ : ∃ qs, madeP (mT f) (mX f) ps = qs := ⟨_, rfl⟩
  have hql : qs.length ≤ 2730 := by rw [← hqs]; exact madeP_length _ _ _
  have hsm : (madeS f).data.size ≤ 60000 := (made_small f ps).2
  rw [hqs] at b1 ⊢
  obtain ⟨g, hg⟩ : ∃ g, madeS f = g := ⟨_, rfl⟩
  rw [hg] at hsm ⊢
  have hw2 : Below w.heap.size w w2 := hw1.trans (b3.mono hw1.size)
  clear hg hqs d0 d1 d2 d3 d4 d5 d6 d7 d8 d9 d10 b2 b3 hP1 hw1
  have HG : Hid (PRow w2 (.slice qb qs.length qc) qs ∧ Below w.heap.size w w2) := ⟨b1, hw2⟩
  obtain ⟨n, hn⟩ : ∃ n, qs.length = n := ⟨_, rfl⟩
  rw [hn] at HG ⊢
  clear b1 hw2
  have HN : Hid (qs.length = n ∧ n ≤ 2730 ∧ g.data.size ≤ 60000) := ⟨hn, by omega, hsm⟩
  clear hn hql hsm
  have HW : Hid (∀ g' : Fr, g'.data = g.data → ¬ Right g' qs → ∀ W : World, W = w2.alloc (.cells (fv g' (.slice qb n qc)) 28) → Calls Tryd.prog 9 #[.agg (fv g' (.slice qb n qc))] W fun e w' => e = .returned (.tuple #[.string ⟨#[]⟩, .int .i64 60]) ∧ Below w.heap.size w w') := by
    rintro g' hd hno W rfl
    obtain ⟨h1, h2⟩ := HG.out
    obtain ⟨n1, n2, n3⟩ := HN.out
    have hB : Below w.heap.size w (w2.alloc (.cells (fv g' (.slice qb n qc)) 28)) := h2.alloc h2.size _
    refine (write_any g' qs _ _ (hKW.out _ hB).2 (hKW.out _ hB).1 (h1.below fun k _ hk => by rw [heap_al, if_neg (by omega)]) (by have := asmB_le g' qs; rw [hd] at this; omega)).mono ?_
    rintro e w' ⟨v, rfl, hv, hb⟩
    exact ⟨by rw [hv.2.2 hno], hB.trans (hb.mono hB.size)⟩
  unfold fv
  rcases HT.out with rfl | rfl | rfl | rfl | rfl | rfl | rfl | rfl
  · go_wp2_with fail
    refine (HW.out { g with ty := 256 + b } rfl (not_right (by simp only; omega)) _ rfl).mono ?_
    rintro e w3 ⟨rfl, h3⟩
    go_wp2_with fail
    go_ret
    exact ⟨rfl, h3⟩
  · go_wp2_with fail
    refine (HW.out { g with st := 2147483648 + b } rfl (not_right (by simp only; omega)) _ rfl).mono ?_
    rintro e w3 ⟨rfl, h3⟩
    go_wp2_with fail
    go_ret
    exact ⟨rfl, h3⟩
  · go_wp2_with fail
    refine (HW.out { g with st := -1 - b } rfl (not_right (by simp only; omega)) _ rfl).mono ?_
    rintro e w3 ⟨rfl, h3⟩
    go_wp2_with fail
    go_ret
    exact ⟨rfl, h3⟩
  · go_wp2_with fail
    refine (HW.out { g with pad := 256 + b } rfl (not_right (by simp only; omega)) _ rfl).mono ?_
    rintro e w3 ⟨rfl, h3⟩
    go_wp2_with fail
    go_ret
    exact ⟨rfl, h3⟩
  · go_wp2_with fail
    refine (HW.out { g with wt := 257 + b } rfl (not_right (by simp only; omega)) _ rfl).mono ?_
    rintro e w3 ⟨rfl, h3⟩
    go_wp2_with fail
    go_ret
    exact ⟨rfl, h3⟩
  · go_wp2_with fail
    refine (HW.out { g with code := 4294967296 + b } rfl (not_right (by simp only; omega)) _ rfl).mono ?_
    rintro e w3 ⟨rfl, h3⟩
    go_wp2_with fail
    go_ret
    exact ⟨rfl, h3⟩
  · go_wp2_with fail
    refine (HW.out { g with last := 2147483648 + b } rfl (not_right (by simp only; omega)) _ rfl).mono ?_
    rintro e w3 ⟨rfl, h3⟩
    go_wp2_with fail
    go_ret
    exact ⟨rfl, h3⟩
  · go_wp2_with fail
    refine (HW.out { g with fl := 256 + b } rfl (not_right (by simp only; omega)) _ rfl).mono ?_
    rintro e w3 ⟨rfl, h3⟩
    go_wp2_with fail
    go_ret
    exact ⟨rfl, h3⟩
end Go.Proofs.YtjigjckclpccmaaDoor
