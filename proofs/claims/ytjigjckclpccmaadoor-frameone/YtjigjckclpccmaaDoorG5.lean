/- FrameOne: a frame read. -/
import Derived.Test.YtjigjckclpccmaaDoorG2
import Derived.Test.YtjigjckclpccmaaDoorH6
import Derived.Deep.CutRange
import Derived.Deep.RegionHeld3
namespace Go.Proofs.YtjigjckclpccmaaDoor
open Go.RowKit
set_option linter.unusedVariables false
set_option linter.unusedSimpArgs false

set_option maxRecDepth 100000 in
set_option maxHeartbeats 8000000 in
theorem one_none (b : ByteArray) (most : Int) (w : World) (hw : 1 ≤ w.heap.size) (hK : Kinds w) (hS : b.size ≤ 140737488355328) (hn : (readS b most).2.1 = 0) :
    Calls Tryd.prog 6 #[.string b, .int .i64 most] w fun e w' => e = .returned (.bool true) ∧ Below w.heap.size w w' := by
  have hKW : Hid (∀ W : World, Below w.heap.size w W → Kinds W ∧ 1 ≤ W.heap.size) := fun W hb => ⟨hK.of_eq (hb.block 0 (by omega)), Nat.le_trans hw hb.size⟩
  have HR : Hid (∀ W : World, Below w.heap.size w W → Calls Tryd.prog 13 #[.string b, .int .i64 most] W fun e w' => RPost W (readS b most) e w') := fun W hW => read_any _ _ W (hKW.out _ hW).2 (hKW.out _ hW).1
  obtain ⟨⟨⟨f, ps⟩, n, c, x⟩, hres⟩ : ∃ res, readS b most = res := ⟨_, rfl⟩
  rw [hres] at HR hn
  replace hn : n = 0 := hn
  subst hn
  clear hres hK
  have key : ∀ (hcx : (c = 0 ∧ x = 0) ∨ c ≠ 0 ∨ (c = 0 ∧ x ≠ 0)), Calls Tryd.prog 6 #[.string b, .int .i64 most] w fun e w' => e = .returned (.bool true) ∧ Below w.heap.size w w' := by
    intro hcx
    rcases hcx with ⟨rfl, rfl⟩ | hc | ⟨rfl, hx⟩
    · go_enter Tryd.func6, Tryd.ntmps6
      go_wp2_with fail
      refine (first_any _ (hKW.out _ (Below.refl _ _)).2 (hKW.out _ (Below.refl _ _)).1).mono ?_
      rintro e w1 ⟨rfl, hb1⟩
      go_wp2_with fail
      refine (HR.out _ hb1).mono ?_
      rintro e w2 ⟨r, rfl, r1, r2, r3⟩
      obtain ⟨rb, rc, rfl⟩ := r1.slice
      have hB2 := hb1.trans (r3.mono hb1.size)
      have hB3 := (hB2.alloc hB2.size (.cells (fv f (.slice rb ps.length rc)) 28)).alloc (by rw [size_al]; have := hB2.size; omega) (.cells #[.int .i64 0, .int .i64 0] 31)
      unfold fv at *
      go_wp2_with fail
      go_ret
      exact ⟨rfl, hB3⟩
    · have hcb : (c == 0) = false := by simpa using hc
      go_enter Tryd.func6, Tryd.ntmps6
      go_wp2_with fail
      refine (first_any _ (hKW.out _ (Below.refl _ _)).2 (hKW.out _ (Below.refl _ _)).1).mono ?_
      rintro e w1 ⟨rfl, hb1⟩
      go_wp2_with fail
      refine (HR.out _ hb1).mono ?_
      rintro e w2 ⟨r, rfl, r1, r2, r3⟩
      obtain ⟨rb, rc, rfl⟩ := r1.slice
      have hB2 := hb1.trans (r3.mono hb1.size)
      have hB3 := (hB2.alloc hB2.size (.cells (fv f (.slice rb ps.length rc)) 28)).alloc (by rw [size_al]; have := hB2.size; omega) (.cells #[.int .i64 c, .int .i64 x] 31)
      unfold fv at *
      go_wp2_with fail
      go_ret
      exact ⟨rfl, hB3⟩
    · have hxb : (x == 0) = false := by simpa using hx
      go_enter Tryd.func6, Tryd.ntmps6
      go_wp2_with fail
      refine (first_any _ (hKW.out _ (Below.refl _ _)).2 (hKW.out _ (Below.refl _ _)).1).mono ?_
      rintro e w1 ⟨rfl, hb1⟩
      go_wp2_with fail
      refine (HR.out _ hb1).mono ?_
      rintro e w2 ⟨r, rfl, r1, r2, r3⟩
      obtain ⟨rb, rc, rfl⟩ := r1.slice
      have hB2 := hb1.trans (r3.mono hb1.size)
      have hB3 := (hB2.alloc hB2.size (.cells (fv f (.slice rb ps.length rc)) 28)).alloc (by rw [size_al]; have := hB2.size; omega) (.cells #[.int .i64 0, .int .i64 x] 31)
      unfold fv at *
      go_wp2_with fail
      go_ret
      exact ⟨rfl, hB3⟩
  apply key
  by_cases hc : c = 0
  · by_cases hx : x = 0
    · exact .inl ⟨hc, hx⟩
    · exact .inr (.inr ⟨hc, hx⟩)
  · exact .inr (.inl hc)

set_option maxRecDepth 100000 in
set_option maxHeartbeats 8000000 in
theorem one_fault (b : ByteArray) (most : Int) (w : World) (hw : 1 ≤ w.heap.size) (hK : Kinds w) (hS : b.size ≤ 140737488355328) (N : Nat) (hN : 9 + N ≤ b.size) (hn : (readS b most).2.1 = ((9 + N : Nat) : Int)) (hc : (readS b most).2.2.1 = 6) (hx : 0 < (readS b most).2.2.2) (h3 : byteAt b 3 = 2) :
    Calls Tryd.prog 6 #[.string b, .int .i64 most] w fun e w' => e = .returned (.bool true) ∧ Below w.heap.size w w' := by
  have hKW : Hid (∀ W : World, Below w.heap.size w W → Kinds W ∧ 1 ≤ W.heap.size) := fun W hb => ⟨hK.of_eq (hb.block 0 (by omega)), Nat.le_trans hw hb.size⟩
  have HR : Hid (∀ W : World, Below w.heap.size w W → Calls Tryd.prog 13 #[.string b, .int .i64 most] W fun e w' => RPost W (readS b most) e w') := fun W hW => read_any _ _ W (hKW.out _ hW).2 (hKW.out _ hW).1
  obtain ⟨⟨⟨f, ps⟩, n, c, x⟩, hres⟩ : ∃ res, readS b most = res := ⟨_, rfl⟩
  rw [hres] at HR hn hc hx
  replace hn : n = ((9 + N : Nat) : Int) := hn
  replace hc : c = 6 := hc
  replace hx : 0 < x := hx
  subst hc
  have hs3n : 3 < b.size := by omega
  have hb3 : (b[3]'hs3n).toNat = 2 := by rw [← byteAt_eq]; exact h3
  obtain ⟨M, hM⟩ : ∃ M : Nat, 9 + N = M := ⟨_, rfl⟩
  rw [hM] at hn
  subst hn
  have hM0 : ((M : Int) == 0) = false := by simp; omega
  have hM9 : (9 : Int) ≤ (M : Int) := by omega
  have hMb : (M : Int) ≤ (b.size : Int) := by omega
  have hs3 : (3 : Int) < (b.size : Int) := by omega
  clear hres hK hM
  go_enter Tryd.func6, Tryd.ntmps6
  go_wp2_with fail
  refine (first_any _ (hKW.out _ (Below.refl _ _)).2 (hKW.out _ (Below.refl _ _)).1).mono ?_
  rintro e w1 ⟨rfl, hb1⟩
  go_wp2_with fail
  refine (HR.out _ hb1).mono ?_
  rintro e w2 ⟨r, rfl, r1, r2, r3⟩
  obtain ⟨rb, rc, rfl⟩ := r1.slice
  have hB2 := hb1.trans (r3.mono hb1.size)
  have hB3 := (hB2.alloc hB2.size (.cells (fv f (.slice rb ps.length rc)) 28)).alloc (by rw [size_al]; have := hB2.size; omega) (.cells #[.int .i64 6, .int .i64 x] 31)
  unfold fv at *
  go_wp2_with fail
  go_ret
  exact ⟨rfl, hB3⟩

theorem PRow.isIn {w : World} {v : Value} {l : List (Int × Int)} (h : PRow w v l) : PIn w v l := by
  by_cases h0 : l.length = 0
  · obtain ⟨b, c, rfl⟩ := h.slice
    rw [h0]
    exact .inl ⟨b, c, rfl, List.eq_nil_of_length_eq_zero h0⟩
  · obtain ⟨g, cap, rfl, h1, h2, h3, h4⟩ := h.at 0 (by omega)
    refine .inr ⟨g, 0, cap, rfl, h1, h2, World.block_lt_of_cell? _ _ h3, fun k hk => ?_⟩
    obtain ⟨g', cap', e, _, _, h5, h6⟩ := h.at k hk
    injection e with e1 e2 e3
    injection e1 with e1
    injection e1 with e1
    subst e1
    rw [Nat.zero_add]
    exact ⟨h5, h6⟩

/-- where FrameOne stands -/
def OneS (w : World) (A : Nat) (f : Fr) (p : Value) (ps : List (Int × Int)) (W : World) : Prop := FB W A f p ∧ PRow W p ps ∧ Below w.heap.size w W
theorem OneS.below {w : World} {A : Nat} {f : Fr} {p : Value} {ps : List (Int × Int)} {W W' : World} (h : OneS w A f p ps W) (hb : Below W.heap.size W W') : OneS w A f p ps W' :=
  ⟨h.1.below hb, h.2.1.below fun k _ hk => hb.block k hk, h.2.2.trans (hb.mono h.2.2.size)⟩

theorem read_plain (b : ByteArray) (most : Int) (f : Fr) (ps : List (Int × Int)) (N : Nat) (hN : numS (b.extract 0 3) = N) (hb : 9 + N ≤ b.size) (hN5 : N ≤ 65536) (hm : (N : Int) ≤ min (max most 16384) 65536) (hp : parseS (b.extract 0 (9 + N)) = ((f, ps), 0, 0)) :
    Right f ps ∧ (asmB f ps).size = 9 + N ∧ (∀ i, i < 4 → byteAt (asmB f ps) i = byteAt b i) ∧ readS (asmB f ps) most = ((f, ps), ((9 + N : Nat) : Int), 0, 0) ∧ bits .and .i64 (byteAt b 4 : Int) (kflags (min f.ty 10).toNat) = f.fl ∧
    (f.data = ⟨#[]⟩ ∨ ∃ i, i + f.data.size ≤ (b.extract 9 (9 + N)).size ∧ (b.extract 9 (9 + N)).extract i (i + f.data.size) = f.data) ∧ f.data.size ≤ 65536 ∧ ps.length ≤ 65536 := by
  have hz : (b.extract 0 (9 + N)).size = 9 + N := by rw [ByteArray.size_extract]; omega
  obtain ⟨r1, r2, r3, r4⟩ := parse_right _ f ps (by omega) hp
  rw [hz] at r2
  have hwl : (wholeB f ps).length = N := by have := asmB_size f ps; omega
  have hty : f.ty = (byteAt b 3 : Int) := by
    rw [r3]
    unfold tyS
    rw [byteAt_ext _ _ _ (by omega)]
  refine ⟨r1, r2, fun i hi => asm_bytes f ps b (by omega) (by rw [hwl, hN]) hty i hi, ?_, ?_, ?_, ?_⟩
  · have := read_app f ps r1 ⟨#[]⟩ most (by omega) (by omega)
    rw [show asmB f ps ++ (⟨#[]⟩ : ByteArray) = asmB f ps by apply ByteArray.ext; simp [ByteArray.data_append], r2] at this
    exact this
  · rw [r4]
    unfold flS kiS
    rw [byteAt_ext _ _ _ (by omega), ← r3]
  · have := parse_data _ f ps (by omega) hp
    rw [hz, ext_ext _ _ _ _ (Nat.le_refl _)] at this
    exact this
  · have hd : f.data.size ≤ N ∧ ps.length ≤ N := by
      obtain ⟨⟨k1, k2, k3, k4⟩, hkd⟩ : ∃ q, kd f.ty f.fl = q := ⟨_, rfl⟩
      have hpl : (payB k3 f ps).length ≤ N := by
        cases hpad : padS f
        · rw [whole_no hkd hpad] at hwl; omega
        · rw [whole_pad hkd hpad, List.length_append, List.length_append] at hwl; omega
      obtain ⟨_, _, _, b4, b5⟩ := r1.body
      rw [hkd] at b4 b5
      have hsz : f.data.data.toList.length = f.data.size := by simp
      rcases kd_cases f.ty f.fl with h | h | h | h | h | h | h | h | h | h
      all_goals
        rw [h] at hkd
        simp only [Prod.mk.injEq] at hkd
        obtain ⟨rfl, rfl, rfl, rfl⟩ := hkd
        simp only [reduceIte, Nat.reduceEqDiff, or_self, or_true, true_or, false_or, or_false, and_self, and_true, true_and, and_false, false_and] at b4 b5
        simp only [payB, reduceIte, Nat.reduceEqDiff, List.length_append, be_length, prioB_length, parB_length, hsz] at hpl
        first
          | (rw [b4]; simp only [List.length_nil]; omega)
          | (rw [b4, b5]; simp [ByteArray.size])
          | (rw [b5]; simp [ByteArray.size]; omega)
    omega

set_option maxRecDepth 100000 in
set_option maxHeartbeats 8000000 in
theorem one_full (b : ByteArray) (most : Int) (w : World) (hw : 1 ≤ w.heap.size) (hK : Kinds w) (hS : b.size ≤ 140737488355328) (f : Fr) (ps : List (Int × Int)) (N : Nat) (hN : numS (b.extract 0 3) = N) (hb : 9 + N ≤ b.size) (hN5 : N ≤ 65536) (hm : (N : Int) ≤ min (max most 16384) 65536) (hr : readS b most = ((f, ps), ((9 + N : Nat) : Int), 0, 0)) (hp : parseS (b.extract 0 (9 + N)) = ((f, ps), 0, 0)) (hde : ¬ f.data = ⟨#[]⟩) :
    Calls Tryd.prog 6 #[.string b, .int .i64 most] w fun e w' => e = .returned (.bool true) ∧ Below w.heap.size w w' := by
  have hKW : Hid (∀ W : World, Below w.heap.size w W → Kinds W ∧ 1 ≤ W.heap.size) := fun W hb => ⟨hK.of_eq (hb.block 0 (by omega)), Nat.le_trans hw hb.size⟩
  obtain ⟨hR, hsz, hby, hread, hfl, hdata, hd6, hp6⟩ := read_plain b most f ps N hN hb hN5 hm hp
  have HR : Hid (∀ W : World, Below w.heap.size w W → Calls Tryd.prog 13 #[.string b, .int .i64 most] W fun e w' => RPost W ((f, ps), ((9 + N : Nat) : Int), 0, 0) e w') := fun W hW => by rw [← hr]; exact read_any _ _ W (hKW.out _ hW).2 (hKW.out _ hW).1
  obtain ⟨M, hM⟩ : ∃ M : Nat, 9 + N = M := ⟨_, rfl⟩
  rw [hM] at HR hb hsz hread hdata
  obtain ⟨c, hc⟩ : ∃ c, asmB f ps = c := ⟨_, rfl⟩
  have HR2 : Hid (∀ W : World, Below w.heap.size w W → Calls Tryd.prog 13 #[.string c, .int .i64 most] W fun e w' => RPost W ((f, ps), (M : Int), 0, 0) e w') := fun W hW => by rw [← hread, ← hc]; exact read_any _ _ W (hKW.out _ hW).2 (hKW.out _ hW).1
  have HWR : Hid (∀ W : World, Below w.heap.size w W → ∀ p, PRow W p ps → Calls Tryd.prog 9 #[.agg (fv f p)] W fun e w' => e = .returned (.tuple #[.string c, .int .i64 0]) ∧ Below W.heap.size W w') := by
    intro W hW p hpr
    refine (write_any f ps p W (hKW.out _ hW).2 (hKW.out _ hW).1 hpr (by omega)).mono ?_
    rintro e w' ⟨v, rfl, hv, hb'⟩
    exact ⟨by rw [hv.1 hR (by omega), hc], hb'⟩
  rw [hc] at hsz hby
  have HBY : Hid (∀ i, i < 4 → byteAt c i = byteAt b i) := hby
  have HFL : Hid (bits .and .i64 (byteAt b 4 : Int) (kflags (min f.ty 10).toNat) = f.fl) := hfl
  have HDE : Hid (¬ f.data = ⟨#[]⟩) := hde
  clear hde
  have HDA : Hid (f.data = ⟨#[]⟩ ∨ ∃ i, i + f.data.size ≤ (b.extract 9 M).size ∧ (b.extract 9 M).extract i (i + f.data.size) = f.data) := hdata
  have HRI : Hid (Right f ps) := hR
  have hM9 : 9 ≤ M := by omega
  have hM0 : ((M : Int) == 0) = false := by simp; omega
  have hM9i : ¬ (M : Int) < 9 := by omega
  have hMbi : ¬ (b.size : Int) < (M : Int) := by omega
  have hcs : (c.size : Int) = (M : Int) := by omega
  have HCS : Hid (c.size = M) := hsz
  clear hR hby hread hfl hdata hc hr hp hN hm hM hK hN5 hsz
  go_enter Tryd.func6, Tryd.ntmps6
  go_wp2_with fail
  refine (first_any _ (hKW.out _ (Below.refl _ _)).2 (hKW.out _ (Below.refl _ _)).1).mono ?_
  rintro e w1 ⟨rfl, hb1⟩
  go_wp2_with fail
  refine (HR.out _ hb1).mono ?_
  rintro e w2 ⟨r, rfl, r1, r2, r3⟩
  obtain ⟨rb, rc, rfl⟩ := r1.slice
  obtain ⟨m, hm⟩ : ∃ m, ps.length = m := ⟨_, rfl⟩
  simp only [hm] at r1 r2 ⊢
  have hB2 := hb1.trans (r3.mono hb1.size)
  have hB3 : Below w.heap.size w ((w2.alloc (.cells (fv f (.slice rb m rc)) 28)).alloc (.cells #[.int .i64 0, .int .i64 0] 31)) := (hB2.alloc hB2.size (.cells (fv f (.slice rb m rc)) 28)).alloc (by rw [size_al]; have := hB2.size; omega) (.cells #[.int .i64 0, .int .i64 0] 31)
  have h3 : OneS w w2.heap.size f (.slice rb m rc) ps ((w2.alloc (.cells (fv f (.slice rb m rc)) 28)).alloc (.cells #[.int .i64 0, .int .i64 0] 31)) :=
    ⟨by unfold FB; rw [heap_al, if_neg (by rw [size_al]; omega)]; exact heap_alloc_new w2 _, r1.below fun k _ hk => by rw [heap_al, if_neg (by rw [size_al]; omega), heap_al, if_neg (by omega)], hB3⟩
  have HM : Hid (ps.length = m) := hm
  obtain ⟨A, hA⟩ : ∃ A, w2.heap.size = A := ⟨_, rfl⟩
  rw [hA] at h3
  have hwA : w.heap.size ≤ A := by rw [← hA]; exact hB2.size
  clear r1 r2 r3 hm
  unfold fv
  go_wp2_with fail
  refine (HWR.out _ hB3 (.slice rb m rc) h3.2.1).mono ?_
  rintro e w3 ⟨rfl, hb3⟩
  have hS3 := h3.below hb3
  clear h3 hb3 hB3 hB2 hb1 HWR HR
  try rw [hA]
  obtain ⟨P, hP⟩ : ∃ P, P = OneS w A f (.slice rb m rc) ps := ⟨_, rfl⟩
  have hcells : Hid (∀ W, P W → W.cell? ⟨A, 0, none⟩ = some (.int .i64 f.ty) ∧ W.cell? ⟨A, 1, none⟩ = some (.int .i64 f.fl) ∧ W.cell? ⟨A, 2, none⟩ = some (.int .i64 f.st) ∧ W.cell? ⟨A, 3, none⟩ = some (.string f.data) ∧ W.cell? ⟨A, 4, none⟩ = some (.int .i64 f.pad) ∧ W.cell? ⟨A, 5, none⟩ = some (.int .i64 f.dep) ∧ W.cell? ⟨A, 6, none⟩ = some (.bool f.excl) ∧ W.cell? ⟨A, 7, none⟩ = some (.int .i64 f.wt) ∧ W.cell? ⟨A, 8, none⟩ = some (.int .i64 f.code) ∧ W.cell? ⟨A, 9, none⟩ = some (.int .i64 f.last) ∧ W.cell? ⟨A, 10, none⟩ = some (.slice rb m rc)) := fun W h => by subst hP; exact h.1.cells
  have hdr : Hid (∀ W, P W → P W.drew) := fun W h => by subst hP; exact h.below (Below.refl _ W).drew
  have hend : Hid (∀ W, P W → Below w.heap.size w W) := fun W h => by subst hP; exact h.2.2
  have hnext : Hid (∀ W W' : World, P W → Below W.heap.size W W' → P W') := fun W W' h hb => by subst hP; exact h.below hb
  have hrow : Hid (∀ W, P W → PRow W (.slice rb m rc) ps ∧ A < W.heap.size) := fun W h => by subst hP; exact ⟨h.2.1, h.1.lt⟩
  rw [← hP] at hS3
  clear hP
  have c17 : Hid (∀ W, P W → Calls Tryd.prog 17 #[.agg (fv f (.slice rb m rc))] W fun e w' => e = .returned (.agg (fv (wholeF f) (.slice rb m rc))) ∧ P w') := by
    intro W h
    have hw2 : 0 ≤ f.wt ∧ f.wt ≤ 256 := by
      have := HRI.out.body.1
      split at this
      · omega
      · omega
    refine (whole_any f rb m rc W hw2.1 hw2.2).mono ?_
    rintro e w' ⟨rfl, hb⟩
    exact ⟨rfl, hnext.out _ _ h hb⟩
  have c15 : Hid (f.data.size ≤ 60000 → m ≤ 2730 → ∀ W, P W → Calls Tryd.prog 15 #[.agg (fv (wholeF f) (.slice rb m rc))] W fun e w' => ∃ qb qc, e = .returned (.agg (fv f (.slice qb m qc))) ∧ PRow w' (.slice qb m qc) ps ∧ P w') := by
    intro hd hl W h
    refine (made_any (wholeF f) _ ps W (hrow.out _ h).1.isIn (by show f.data.size ≤ _; omega)).mono ?_
    rintro e w' ⟨q, rfl, q1, q2, q3⟩
    obtain ⟨e1, e2⟩ := made_whole f ps HRI.out hd (by rw [HM.out]; exact hl)
    rw [e2] at q1
    rw [e1]
    obtain ⟨qb, qc, rfl⟩ := q1.slice
    rw [HM.out] at q1 ⊢
    exact ⟨qb, qc, rfl, q1, hnext.out _ _ h q3⟩
  have c16 : Hid (∀ W (qb : Option Addr) (qc : Nat), P W → PRow W (.slice qb m qc) ps → Calls Tryd.prog 16 #[.agg (fv f (.slice rb m rc)), .agg (fv f (.slice qb m qc))] W fun e w' => e = .returned (.bool true) ∧ P w') := by
    intro W qb qc h hq
    refine (sameFrame_eq f W rb m rc qb m qc ps (hrow.out _ h).1 hq).mono ?_
    rintro e w' ⟨rfl, hb⟩
    exact ⟨rfl, hnext.out _ _ h hb⟩
  obtain ⟨d0, d1, d2, d3, d4, d5, d6, d7, d8, d9, d10⟩ := hcells.out _ hS3
  have hA3 := (hrow.out _ hS3).2
  unfold fv at *
  go_upto_region 9 with fail
  go_cut [99] from 14 (fun t wx => t = .bool false ∧ P wx)
  case first =>
    have hS3d := hdr.out _ hS3
    by_cases hd : f.data.size ≤ 60000
    · have hdi : decide ((f.data.size : Int) ≤ 60000) = true := decide_eq_true (by omega)
      by_cases hl : m ≤ 2730
      · have hli : decide ((m : Int) ≤ 2730) = true := decide_eq_true (by omega)
        have c15' : Hid _ := c15.out hd hl
        clear hd hl c15
        go_region_with (first | (go_at_call 17; refine (c17.out _ (by assumption)).mono ?_; rintro e w4 ⟨rfl, hS4⟩; obtain ⟨d0, d1, d2, d3, d4, d5, d6, d7, d8, d9, d10⟩ := hcells.out _ hS4) | (go_at_call 15; refine (c15'.out _ (by assumption)).mono ?_; rintro e w5 ⟨qb, qc, rfl, hq5, hS5⟩; obtain ⟨d0, d1, d2, d3, d4, d5, d6, d7, d8, d9, d10⟩ := hcells.out _ hS5) | (go_at_call 16; refine (c16.out _ _ _ (by assumption) (by assumption)).mono ?_; rintro e w6 ⟨rfl, hS6⟩; obtain ⟨d0, d1, d2, d3, d4, d5, d6, d7, d8, d9, d10⟩ := hcells.out _ hS6))
        all_goals
          go_wp2_with fail
          go_meet
          case rel => exact ⟨rfl, by assumption⟩
      · have hli : decide ((m : Int) ≤ 2730) = false := decide_eq_false (by omega)
        go_region
        all_goals
          go_wp2_with fail
          go_meet
          case rel => exact ⟨rfl, hS3d⟩
    · have hdi : decide ((f.data.size : Int) ≤ 60000) = false := decide_eq_false (by omega)
      go_region
      all_goals
        go_wp2_with fail
        go_meet
        case rel => exact ⟨rfl, hS3d⟩
  case rest =>
    obtain ⟨rfl, hS⟩ := hcut
    clear d0 d1 d2 d3 d4 d5 d6 d7 d8 d9 d10 c15 c17 hA3
    go_wp2_with fail
    go_loopw [10] (fun x wr => ∃ k : Nat, k ≤ 4 ∧ x = .int .i64 (k : Int) ∧ P wr) (fun x _ => 4 - (intOf x).toNat)
    case atStart => exact ⟨0, by omega, rfl, hS⟩
    case round =>
      obtain ⟨k, hk, rfl, hSr⟩ := hrel
      have hcs' := HCS.out
      by_cases hk4 : k < 4
      · have hkc : k < c.size := by omega
        have hkb : k < b.size := by omega
        have hbk : (c[k]'hkc).toNat = (b[k]'hkb).toNat := by
          have := HBY.out k hk4
          rwa [byteAt_eq _ _ hkc, byteAt_eq _ _ hkb] at this
        have hk4i : (k : Int) < 4 := by omega
        clear hcs'
        go_wp2_with fail
        go_region
        all_goals
          go_wp2_with fail
          go_roundw
          case rel => exact ⟨k + 1, by omega, by simp, hdr.out _ hSr⟩
          case measure => simp [intOf]; omega
      · obtain rfl : k = 4 := by omega
        go_wp2_with fail
        refine (HR2.out _ (hend.out _ hSr)).mono ?_
        rintro e w7 ⟨q, rfl, q1, q2, q3⟩
        obtain ⟨qb, qc, rfl⟩ := q1.slice
        have hm' := HM.out
        simp only [hm'] at q1 q2 ⊢
        clear hm' q2
        have hS7 := hnext.out _ _ hSr q3
        obtain ⟨D, hD⟩ : ∃ D, w7.heap.size = D := ⟨_, rfl⟩
        have hb8 : Below w7.heap.size w7 ((w7.alloc (.cells (fv f (.slice qb m qc)) 28)).alloc (.cells #[.int .i64 0, .int .i64 0] 31)) := ((Below.refl _ w7).alloc (Nat.le_refl _) _).alloc (by rw [size_al]; omega) _
        obtain ⟨Q, hQ⟩ : ∃ Q : World → Prop, Q = fun W => P W ∧ FB W D f (.slice qb m qc) ∧ W.heap[D + 1]? = some (.cells #[.int .i64 0, .int .i64 0] 31 (0, 0)) ∧ PRow W (.slice qb m qc) ps := ⟨_, rfl⟩
        have H0 : Q ((w7.alloc (.cells (fv f (.slice qb m qc)) 28)).alloc (.cells #[.int .i64 0, .int .i64 0] 31)) := by
          subst hQ
          refine ⟨hnext.out _ _ hS7 hb8, ?_, ?_, q1.below fun k _ hk => hb8.block k hk⟩
          · unfold FB; rw [← hD, heap_al, if_neg (by rw [size_al]; omega)]; exact heap_alloc_new w7 _
          · rw [← hD, heap_al, if_pos (by rw [size_al])]
        have hnQ : ∀ W W' : World, Q W → Below W.heap.size W W' → Q W' := fun W W' h hb => by
          subst hQ
          exact ⟨hnext.out _ _ h.1 hb, h.2.1.below hb, (hb.block _ (Array.getElem?_eq_some_iff.1 h.2.2.1).1).trans h.2.2.1, h.2.2.2.below fun k _ hk => hb.block k hk⟩
        have hdQ : Hid (∀ W, Q W → Q W.drew) := fun W h => hnQ _ _ h (Below.refl _ W).drew
        have heQ : Hid (∀ W, Q W → Below w.heap.size w W) := fun W h => by subst hQ; exact hend.out _ h.1
        have hfull : Hid (∀ W, Q W → (W.cell? ⟨A, 0, none⟩ = some (.int .i64 f.ty) ∧ W.cell? ⟨A, 1, none⟩ = some (.int .i64 f.fl) ∧ W.cell? ⟨A, 2, none⟩ = some (.int .i64 f.st) ∧ W.cell? ⟨A, 3, none⟩ = some (.string f.data) ∧ W.cell? ⟨A, 4, none⟩ = some (.int .i64 f.pad) ∧ W.cell? ⟨A, 5, none⟩ = some (.int .i64 f.dep) ∧ W.cell? ⟨A, 6, none⟩ = some (.bool f.excl) ∧ W.cell? ⟨A, 7, none⟩ = some (.int .i64 f.wt) ∧ W.cell? ⟨A, 8, none⟩ = some (.int .i64 f.code) ∧ W.cell? ⟨A, 9, none⟩ = some (.int .i64 f.last) ∧ W.cell? ⟨A, 10, none⟩ = some (.slice rb m rc)) ∧ (W.cell? ⟨D, 0, none⟩ = some (.int .i64 f.ty) ∧ W.cell? ⟨D, 1, none⟩ = some (.int .i64 f.fl) ∧ W.cell? ⟨D, 2, none⟩ = some (.int .i64 f.st) ∧ W.cell? ⟨D, 3, none⟩ = some (.string f.data) ∧ W.cell? ⟨D, 4, none⟩ = some (.int .i64 f.pad) ∧ W.cell? ⟨D, 5, none⟩ = some (.int .i64 f.dep) ∧ W.cell? ⟨D, 6, none⟩ = some (.bool f.excl) ∧ W.cell? ⟨D, 7, none⟩ = some (.int .i64 f.wt) ∧ W.cell? ⟨D, 8, none⟩ = some (.int .i64 f.code) ∧ W.cell? ⟨D, 9, none⟩ = some (.int .i64 f.last) ∧ W.cell? ⟨D, 10, none⟩ = some (.slice qb m qc)) ∧ (W.cell? ⟨D + 1, 0, none⟩ = some (.int .i64 0) ∧ W.cell? ⟨D + 1, 1, none⟩ = some (.int .i64 0)) ∧ Q W) := fun W h => by
          refine ⟨hcells.out _ (by subst hQ; exact h.1), ?_, ?_, h⟩
          · subst hQ; exact h.2.1.cells
          · subst hQ
            have e0 := cell_of_row _ _ 0 _ _ _ h.2.2.1
            have e1 := cell_of_row _ _ 1 _ _ _ h.2.2.1
            exact ⟨e0, e1⟩
        have q16 : Hid (∀ W, Q W → Calls Tryd.prog 16 #[.agg (fv f (.slice rb m rc)), .agg (fv f (.slice qb m qc))] W fun e w' => e = .returned (.bool true) ∧ Q w') := by
          intro W h
          refine (sameFrame_eq f W rb m rc qb m qc ps (hrow.out _ (by subst hQ; exact h.1)).1 (by subst hQ; exact h.2.2.2)).mono ?_
          rintro e w' ⟨rfl, hb⟩
          exact ⟨rfl, hnQ _ _ h hb⟩
        obtain ⟨KF, hKF⟩ : ∃ KF, kflags (min f.ty 10).toNat = KF := ⟨_, rfl⟩
        have q18 : Hid (∀ W, Q W → Calls Tryd.prog 18 #[.int .i64 f.ty] W fun e w' => e = .returned (.int .i64 KF) ∧ Q w') := by
          intro W h
          refine (flags_law f.ty HRI.out.ty0 W).mono ?_
          rintro e w' ⟨rfl, rfl⟩
          exact ⟨by rw [hKF], h⟩
        have h4b : 4 < b.size := by omega
        have hfl4 : bits .and .i64 ((b[4]'h4b).toNat : Int) KF = f.fl := by
          have := HFL.out
          rw [byteAt_eq _ _ h4b, hKF] at this
          exact this
        have hfl4' : bits .and .i64 (IntKind.i64.wrap ((b[4]'h4b).toNat : Int)) KF = f.fl := by rw [wraps_i64_63 _ (by omega) (by have := (b[4]'h4b).toNat_lt; omega)]; exact hfl4
        have h9M : (9 : Int) ≤ (M : Int) := by omega
        have hMb : (M : Int) ≤ (b.size : Int) := by omega
        try rw [hD]
        clear hQ hb8 q1 q3 hS7 hSr hcells hdr hnext hrow c16 HR2 HBY hcs' hKF hS hS3
        unfold fv at *
        have hE : f.data.toList.isEmpty = false := by
          cases hh : f.data.toList with
          | nil => exact absurd (ByteArray.ext (Array.ext' (by simpa [ByteArray.toList_eq] using hh))) HDE.out
          | cons => rfl
        obtain ⟨i, hi, hsub⟩ := HDA.out.resolve_left HDE.out
        obtain ⟨s9, hs9⟩ : ∃ s9, b.extract 9 M = s9 := ⟨_, rfl⟩
        rw [hs9] at hi hsub
        have hs9l : s9.size ≤ 140737488355328 := by rw [← hs9, ByteArray.size_extract]; omega
        have q19 : Hid (∀ W, Q W → Calls Tryd.prog 19 #[.string s9, .string f.data] W fun e w' => e = .returned (.bool true) ∧ Q w') := by
          intro W h
          refine (holds_any s9 f.data W i hi hsub hs9l).mono ?_
          rintro e w' ⟨rfl, rfl⟩
          exact ⟨rfl, h⟩
        clear hi hsub HDE HDA HFL
        go_wp2_with fail
        go_region_held3 (fun W => (W.cell? ⟨A, 0, none⟩ = some (.int .i64 f.ty) ∧ W.cell? ⟨A, 1, none⟩ = some (.int .i64 f.fl) ∧ W.cell? ⟨A, 2, none⟩ = some (.int .i64 f.st) ∧ W.cell? ⟨A, 3, none⟩ = some (.string f.data) ∧ W.cell? ⟨A, 4, none⟩ = some (.int .i64 f.pad) ∧ W.cell? ⟨A, 5, none⟩ = some (.int .i64 f.dep) ∧ W.cell? ⟨A, 6, none⟩ = some (.bool f.excl) ∧ W.cell? ⟨A, 7, none⟩ = some (.int .i64 f.wt) ∧ W.cell? ⟨A, 8, none⟩ = some (.int .i64 f.code) ∧ W.cell? ⟨A, 9, none⟩ = some (.int .i64 f.last) ∧ W.cell? ⟨A, 10, none⟩ = some (.slice rb m rc)) ∧ (W.cell? ⟨D, 0, none⟩ = some (.int .i64 f.ty) ∧ W.cell? ⟨D, 1, none⟩ = some (.int .i64 f.fl) ∧ W.cell? ⟨D, 2, none⟩ = some (.int .i64 f.st) ∧ W.cell? ⟨D, 3, none⟩ = some (.string f.data) ∧ W.cell? ⟨D, 4, none⟩ = some (.int .i64 f.pad) ∧ W.cell? ⟨D, 5, none⟩ = some (.int .i64 f.dep) ∧ W.cell? ⟨D, 6, none⟩ = some (.bool f.excl) ∧ W.cell? ⟨D, 7, none⟩ = some (.int .i64 f.wt) ∧ W.cell? ⟨D, 8, none⟩ = some (.int .i64 f.code) ∧ W.cell? ⟨D, 9, none⟩ = some (.int .i64 f.last) ∧ W.cell? ⟨D, 10, none⟩ = some (.slice qb m qc)) ∧ (W.cell? ⟨D + 1, 0, none⟩ = some (.int .i64 0) ∧ W.cell? ⟨D + 1, 1, none⟩ = some (.int .i64 0)) ∧ Q W) (first | exact hfull.out _ (hdQ.out _ H0) | exact hfull.out _ (by assumption)) (first | (go_at_call 16; refine (q16.out _ (And.right (And.right (And.right (by assumption))))).mono ?_; rintro e' w9 ⟨rfl, hb9⟩) | (go_at_call 18; refine (q18.out _ (And.right (And.right (And.right (by assumption))))).mono ?_; rintro e' w9 ⟨rfl, hb9⟩) | (go_at_call 19; refine (q19.out _ (And.right (And.right (And.right (by assumption))))).mono ?_; rintro e' w9 ⟨rfl, hb9⟩))
        all_goals
          go_wp2_with fail
          go_ret
          rename_i hSS
          exact ⟨rfl, heQ.out _ hSS.2.2.2⟩
end Go.Proofs.YtjigjckclpccmaaDoor
