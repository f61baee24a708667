/- FrameApart, walked. -/
import Derived.Test.YtjigjckclpccmaaDoorI2
import Derived.Test.YtjigjckclpccmaaDoorR3
import Derived.Deep.CutRange
import Derived.Deep.RegionHeld3
namespace Go.Proofs.YtjigjckclpccmaaDoor
open Go.RowKit
set_option linter.unusedVariables false
set_option linter.unusedSimpArgs false

theorem set_right (l : List (Int × Int)) : Right fSet (fewS l) := by
  have h := made_right fSet l
  have e1 : mT fSet = 4 := by decide +kernel
  have e2 : mX fSet = 0 := by decide +kernel
  have e3 : madeS fSet = fSet := by
    unfold madeS
    rw [e1, e2]
    have hz : (⟨#[]⟩ : ByteArray).size = 0 := rfl
    simp [madeG, mSt, mD, mD0, mPr, fSet, hz]
  rw [e3, e1, e2] at h
  exact h
theorem set_whole (l : List (Int × Int)) : (wholeB fSet l).length = 6 * l.length := by
  have hk : kd fSet.ty fSet.fl = (70, 6, 57, 58) := by decide +kernel
  have hp : padS fSet = false := by decide +kernel
  rw [whole_no hk hp]
  show (parB l).length = _
  rw [parB_length]
  omega
def s3 : ByteArray := ⟨#[0, 0, 6, 4, 0, 0, 0, 0, 0, 0, 3, 0, 0, 0, 1]⟩
theorem read_3 : readS s3 16384 = ((fSet, [(3, 1)]), 15, 0, 0) := by kernel_rfl

theorem built37 (k : Int) (W : World) : (Instr.build 37 #[(0, .int .i64 k)]).run Tryd.prog W = .ok (.agg #[.int .i64 k, .int .i64 0]) W :=
  run_build W 37 _ _ (by kernel_rfl)

/-- where FrameApart stands -/
structure Ap (w : World) (A0 A1 A2 : Nat) (s : Nat → Value) (L : Nat → List (Int × Int)) (W : World) : Prop where
  f0 : FB W A0 fSet (s 0)
  f1 : FB W A1 fSet (s 1)
  f2 : FB W A2 fSet (s 2)
  row : ∀ i, i < 3 → PRow W (s i) (L i)
  apart : ∀ i j, i < 3 → j < 3 → i ≠ j → ∀ k, (s i).ownBlock = some k → (s j).ownBlock ≠ some k
  new : ∀ i, i < 3 → ∀ k, (s i).ownBlock = some k → w.heap.size ≤ k
  bel : Below w.heap.size w W
theorem Ap.below {w : World} {A0 A1 A2 : Nat} {s : Nat → Value} {L : Nat → List (Int × Int)} {W W' : World} (h : Ap w A0 A1 A2 s L W) (hb : Below W.heap.size W W') : Ap w A0 A1 A2 s L W' :=
  ⟨h.f0.below hb, h.f1.below hb, h.f2.below hb, fun i hi => (h.row i hi).below fun k _ hk => hb.block k hk, h.apart, h.new, h.bel.trans (hb.mono h.bel.size)⟩
theorem Ap.rws {w : World} {A0 A1 A2 : Nat} {s : Nat → Value} {L : Nat → List (Int × Int)} {W : World} (h : Ap w A0 A1 A2 s L W) : Rws w (W.alloc (.cells #[s 0, s 1, s 2] 35)) W.heap.size s L := by
  have hb : Below W.heap.size W (W.alloc (.cells #[s 0, s 1, s 2] 35)) := (Below.refl _ W).alloc (Nat.le_refl _) _
  have h' := h.below hb
  exact ⟨h'.row, h.apart, fun i hi k hk => ⟨h.new i hi k hk, fun e => by have := (h.row i hi).lt k hk; omega⟩, heap_alloc_new W _, h.bel.size, h'.bel⟩

/-- one more of them, the number by name -/
theorem Lng.more' {w W : World} {E G : Nat} {s t : Nat → Value} {F : Nat → List (Int × Int)} {i : Nat} (h : Lng w W E G s t F i) (y : Int) (hy : 200 + (i : Int) = y) (hi : i < 3) (hlen : ((F i).length + 1) * 16 ≤ 140737488355328) : ∃ base cap w',
    (Builtin.append_ #[22, 22] 22 #[s i, .slice (some ⟨W.heap.size, 0, none⟩) 1 1]).run Tryd.prog (W.alloc (.cells #[.int .i64 y, .int .i64 0] 37)) = .ok (.slice base ((F i).length + 1) cap) w' ∧
    G < w'.heap.size ∧ (∃ u, w'.cell? ⟨G, i, none⟩ = some u) ∧ w'.frozen? ⟨G, i, none⟩ = false ∧ Lng w (w'.setCell ⟨G, i, none⟩ (.slice base ((F i).length + 1) cap)) E G s (fun r => if r = i then .slice base ((F i).length + 1) cap else t r) F (i + 1) := by
  subst hy
  exact h.more hi hlen
/-- what a row and the longer one hold -/
theorem Lng.at {w W : World} {E G : Nat} {s t : Nat → Value} {F : Nat → List (Int × Int)} (h : Lng w W E G s t F 3) (i : Nat) (hi : i < 3) (n : Nat) (hF : F i = fill i n) (j : Nat) (hj : j < n) (x : Int) (hx : 100 + (i : Int) = x) : ∃ g cg, s i = .slice (some ⟨g, 0, none⟩) n cg ∧ n ≤ cg ∧ cg ≤ 9223372036854775807 ∧ W.cell? ⟨g, j * 2, none⟩ = some (.int .i64 x) ∧ W.cell? ⟨g, j * 2 + 1, none⟩ = some (.int .i64 (j : Int)) ∧ ∃ g' cg', t i = .slice (some ⟨g', 0, none⟩) (n + 1) cg' ∧ n + 1 ≤ cg' ∧ cg' ≤ 9223372036854775807 ∧ W.cell? ⟨g', j * 2, none⟩ = some (.int .i64 x) ∧ W.cell? ⟨g', j * 2 + 1, none⟩ = some (.int .i64 (j : Int)) := by
  subst hx
  have h1 := h.base.row i hi
  have h2 := h.rows i (by omega)
  rw [hF] at h1 h2
  obtain ⟨g, cg, a1, a2, a3, a4, a5⟩ := h1.at j (by rw [fill_length]; exact hj)
  obtain ⟨g', cg', b1, b2, b3, b4, b5⟩ := h2.at j (by rw [List.length_append, fill_length]; omega)
  rw [fill_length] at a1 a2
  rw [List.length_append, fill_length] at b1 b2
  have e1 := fill_get i n j hj
  have e2 : (fill i n ++ [(200 + (i : Int), (0 : Int))])[j]'(by rw [List.length_append, fill_length]; omega) = (100 + (i : Int), (j : Int)) := by rw [List.getElem_append_left (by rw [fill_length]; exact hj)]; exact e1
  rw [e1] at a4 a5
  rw [e2] at b4 b5
  exact ⟨g, cg, a1, a2, a3, a4, a5, g', cg', b1, b2, b3, b4, b5⟩
theorem Lng.last {w W : World} {E G : Nat} {s t : Nat → Value} {F : Nat → List (Int × Int)} (h : Lng w W E G s t F 3) (i : Nat) (hi : i < 3) (n : Nat) (hF : F i = fill i n) (y : Int) (hy : 200 + (i : Int) = y) : (∃ b c, s i = .slice b n c) ∧ ∃ g' cg', t i = .slice (some ⟨g', 0, none⟩) (n + 1) cg' ∧ n + 1 ≤ cg' ∧ cg' ≤ 9223372036854775807 ∧ W.cell? ⟨g', n * 2, none⟩ = some (.int .i64 y) ∧ W.cell? ⟨g', n * 2 + 1, none⟩ = some (.int .i64 0) := by
  subst hy
  have h1 := h.base.row i hi
  have h2 := h.rows i (by omega)
  rw [hF] at h1 h2
  obtain ⟨b, c, e⟩ := h1.slice
  rw [fill_length] at e
  obtain ⟨g', cg', b1, b2, b3, b4, b5⟩ := h2.at n (by rw [List.length_append, fill_length]; simp)
  rw [List.length_append, fill_length] at b1 b2
  have e2 : (fill i n ++ [(200 + (i : Int), (0 : Int))])[n]'(by rw [List.length_append, fill_length]; simp) = (200 + (i : Int), (0 : Int)) := by
    rw [List.getElem_append_right (by rw [fill_length]; omega)]
    simp [fill_length]
  rw [e2] at b4 b5
  exact ⟨⟨b, c, e⟩, g', cg', b1, b2, b3, b4, b5⟩

set_option maxRecDepth 100000 in
set_option maxHeartbeats 16000000 in
theorem frameApart_any (v : Value) (l : List (Int × Int)) (w : World) (hw : 1 ≤ w.heap.size) (hK : Kinds w) (hv : PIn w v l) :
    Calls Tryd.prog 3 #[v] w fun e w' => e = .returned (.bool true) ∧ Below w.heap.size w w' := by
  have hKW : Hid (∀ W : World, Below w.heap.size w W → Kinds W ∧ 1 ≤ W.heap.size) := fun W hb => ⟨hK.of_eq (hb.block 0 (by omega)), Nat.le_trans hw hb.size⟩
  obtain ⟨vb, vn, vc, rfl⟩ : ∃ vb vn vc, v = .slice vb vn vc := by
    rcases hv with ⟨b, cap, rfl, _⟩ | ⟨B, off, cap, rfl, _⟩
    · exact ⟨_, _, _, rfl⟩
    · exact ⟨_, _, _, rfl⟩
  have hR := set_right l
  have hwl := set_whole (fewS l)
  have hsz := asmB_size fSet (fewS l)
  have hfl := fewS_length l
  have c11 : ∀ W : World, Below w.heap.size w W → Calls Tryd.prog 11 #[.slice vb vn vc] W fun e w' => ∃ ob oc, e = .returned (.slice ob (fewS l).length oc) ∧ PRow w' (.slice ob (fewS l).length oc) (fewS l) ∧ Below W.heap.size W w' := fun W hW => by
    refine (few_any W _ l (hv.below hW)).mono ?_
    rintro e w' ⟨o, rfl, h1, h2, h3⟩
    obtain ⟨ob, oc, rfl⟩ := h1.slice
    exact ⟨ob, oc, rfl, h1, h3⟩
  obtain ⟨L, hL⟩ : ∃ L, fewS l = L := ⟨_, rfl⟩
  rw [hL] at hR hwl hsz hfl c11
  obtain ⟨n, hn⟩ : ∃ n, L.length = n := ⟨_, rfl⟩
  rw [hn] at hwl hfl c11
  obtain ⟨b, hb⟩ : ∃ b, asmB fSet L = b := ⟨_, rfl⟩
  have c10 : ∀ (W : World) (ob : Option Addr) (oc : Nat), Below w.heap.size w W → PRow W (.slice ob n oc) L → Calls Tryd.prog 10 #[.slice ob n oc] W fun e w' => ∃ ob' oc', e = .returned (.slice ob' n oc') ∧ PRow w' (.slice ob' n oc') L ∧ Below W.heap.size W w' := fun W ob oc hW hP => by
    refine (lend_any W _ L hP (by omega)).mono ?_
    rintro e w' ⟨o, rfl, h1, h2, h3⟩
    obtain ⟨ob', oc', rfl⟩ := h1.slice
    rw [hn] at h1 ⊢
    exact ⟨ob', oc', rfl, h1, h3⟩
  have c9 : ∀ (W : World) (ob : Option Addr) (oc : Nat), Below w.heap.size w W → PRow W (.slice ob n oc) L → Calls Tryd.prog 9 #[.agg (fv fSet (.slice ob n oc))] W fun e w' => e = .returned (.tuple #[.string b, .int .i64 0]) ∧ Below W.heap.size W w' := fun W ob oc hW hP => by
    refine (write_any fSet L _ W (hKW.out _ hW).2 (hKW.out _ hW).1 hP (by omega)).mono ?_
    rintro e w' ⟨x, rfl, hx, h3⟩
    exact ⟨by rw [hx.1 hR (by omega), hb], h3⟩
  have c13 : ∀ W : World, Below w.heap.size w W → Calls Tryd.prog 13 #[.string b, .int .i64 16384] W fun e w' => ∃ ob oc, e = .returned (.tuple #[.agg (fv fSet (.slice ob n oc)), .int .i64 (b.size : Int), .agg #[.int .i64 0, .int .i64 0]]) ∧ PRow w' (.slice ob n oc) L ∧ (∀ k, (Value.slice ob n oc).ownBlock = some k → W.heap.size ≤ k) ∧ Below W.heap.size W w' := fun W hW => by
    have e := read_app fSet L hR ⟨#[]⟩ 16384 (by omega) (by omega)
    rw [show asmB fSet L ++ (⟨#[]⟩ : ByteArray) = asmB fSet L by apply ByteArray.ext; simp [ByteArray.data_append], hb] at e
    have h := read_any b 16384 W (hKW.out _ hW).2 (hKW.out _ hW).1
    rw [e] at h
    refine h.mono ?_
    rintro e w' ⟨p, rfl, h1, h2, h3⟩
    obtain ⟨ob, oc, rfl⟩ := h1.slice
    simp only [hn] at h1 h2 ⊢
    exact ⟨ob, oc, rfl, h1, h2, h3⟩
  have c13b : ∀ W : World, Below w.heap.size w W → Calls Tryd.prog 13 #[.string ⟨#[0, 0, 6, 4, 0, 0, 0, 0, 0, 0, 3, 0, 0, 0, 1]⟩, .int .i64 16384] W fun e w' => ∃ ob oc, e = .returned (.tuple #[.agg (fv fSet (.slice ob 1 oc)), .int .i64 15, .agg #[.int .i64 0, .int .i64 0]]) ∧ PRow w' (.slice ob 1 oc) [(3, 1)] ∧ (∀ k, (Value.slice ob 1 oc).ownBlock = some k → W.heap.size ≤ k) ∧ Below W.heap.size W w' := fun W hW => by
    have h := read_any s3 16384 W (hKW.out _ hW).2 (hKW.out _ hW).1
    rw [read_3] at h
    refine Calls.mono h ?_
    rintro e w' ⟨p, rfl, h1, h2, h3⟩
    obtain ⟨ob, oc, rfl⟩ := h1.slice
    exact ⟨ob, oc, rfl, h1, h2, h3⟩
  have c14 : ∀ (W : World) (ob : Option Addr) (oc : Nat) (ob' : Option Addr) (oc' : Nat), PRow W (.slice ob n oc) L → PRow W (.slice ob' n oc') L → Calls Tryd.prog 14 #[.slice ob n oc, .slice ob' n oc'] W fun e w' => e = .returned (.bool true) ∧ Below W.heap.size W w' := fun W ob oc ob' oc' h1 h2 => sameParams_eq W _ _ L h1 h2
  have C11 : Hid _ := c11
  have C10 : Hid _ := c10
  have C9 : Hid _ := c9
  have C13 : Hid _ := c13
  have C13b : Hid _ := c13b
  have C14 : Hid _ := c14
  have HN : Hid (L.length = n ∧ n ≤ 2730) := ⟨hn, hfl⟩
  clear hR hwl hsz c11 c10 c9 c13 c13b c14 hL hb hK hv hn
  unfold fv fSet at *
  go_enter Tryd.func3, Tryd.ntmps3
  go_wp2_with fail
  refine (C11.out _ (Below.refl _ _)).mono ?_
  rintro e w1 ⟨ob1, oc1, rfl, hp1, hb1⟩
  go_wp2_with fail
  refine (C10.out _ _ _ hb1 hp1).mono ?_
  rintro e w2 ⟨ob2, oc2, rfl, hp2, hb2'⟩
  have hb2 := hb1.trans (hb2'.mono hb1.size)
  clear hb2' hp1
  go_wp2_with fail
  refine (C9.out _ _ _ hb2 hp2).mono ?_
  rintro e w3 ⟨rfl, hb3'⟩
  have hb3 := hb2.trans (hb3'.mono hb2.size)
  clear hb3' hp2 hb2 hb1
  go_wp2_with fail
  refine (first_any _ (hKW.out _ hb3).2 (hKW.out _ hb3).1).mono ?_
  rintro e w4 ⟨rfl, hb4'⟩
  have hb4 := hb3.trans (hb4'.mono hb3.size)
  clear hb4' hb3
  go_wp2_with fail
  refine (C13.out _ hb4).mono ?_
  rintro e w5 ⟨sb0, sc0, rfl, p0, o0, hb5'⟩
  have hb5 := hb4.trans (hb5'.mono hb4.size)
  have hs45 := hb4.size
  have hs5 := hb5'.size
  go_wp2_with fail
  have hb6 := (hb5.alloc hb5.size (.cells (fv fSet (.slice sb0 n sc0)) 28)).alloc (by rw [size_al]; have := hb5.size; omega) (.cells #[.int .i64 0, .int .i64 0] 31)
  refine (C13.out _ hb6).mono ?_
  rintro e w6 ⟨sb1, sc1, rfl, p1, o1, hb7'⟩
  have hb7 := hb6.trans (hb7'.mono hb6.size)
  go_wp2_with fail
  have hb8 := (hb7.alloc hb7.size (.cells (fv fSet (.slice sb1 n sc1)) 28)).alloc (by rw [size_al]; have := hb7.size; omega) (.cells #[.int .i64 0, .int .i64 0] 31)
  refine (C13b.out _ hb8).mono ?_
  rintro e w7 ⟨sb2, sc2, rfl, p2, o2, hb9'⟩
  have hb9 := hb8.trans (hb9'.mono hb8.size)
  have e1 : Below w7.heap.size w7 ((w7.alloc (.cells (fv fSet (.slice sb2 1 sc2)) 28)).alloc (.cells #[.int .i64 0, .int .i64 0] 31)) := ((Below.refl _ w7).alloc (Nat.le_refl _) _).alloc (by rw [size_al]; omega) _
  have e2 : Below w6.heap.size w6 ((w6.alloc (.cells (fv fSet (.slice sb1 n sc1)) 28)).alloc (.cells #[.int .i64 0, .int .i64 0] 31)) := ((Below.refl _ w6).alloc (Nat.le_refl _) _).alloc (by rw [size_al]; omega) _
  have e3 : Below w5.heap.size w5 ((w5.alloc (.cells (fv fSet (.slice sb0 n sc0)) 28)).alloc (.cells #[.int .i64 0, .int .i64 0] 31)) := ((Below.refl _ w5).alloc (Nat.le_refl _) _).alloc (by rw [size_al]; omega) _
  have z3 : ((w5.alloc (.cells (fv fSet (.slice sb0 n sc0)) 28)).alloc (.cells #[.int .i64 0, .int .i64 0] 31)).heap.size = w5.heap.size + 1 + 1 := by rw [size_al, size_al]
  have z2 : ((w6.alloc (.cells (fv fSet (.slice sb1 n sc1)) 28)).alloc (.cells #[.int .i64 0, .int .i64 0] 31)).heap.size = w6.heap.size + 1 + 1 := by rw [size_al, size_al]
  have y7 : Below _ _ w7 := hb9'
  have t7 := y7.trans (e1.mono y7.size)
  have t6 := e2.trans (t7.mono e2.size)
  have y6 : Below _ _ w6 := hb7'
  have t6' := y6.trans (t6.mono y6.size)
  have t5 := e3.trans (t6'.mono e3.size)
  have u7 := y7.size
  have u6 := y6.size
  rw [size_al, size_al] at u7 u6
  have h8 : Ap w w5.heap.size w6.heap.size w7.heap.size (fun i => if i = 0 then .slice sb0 n sc0 else if i = 1 then .slice sb1 n sc1 else .slice sb2 1 sc2) (fun i => if i = 2 then [(3, 1)] else L) ((w7.alloc (.cells (fv fSet (.slice sb2 1 sc2)) 28)).alloc (.cells #[.int .i64 0, .int .i64 0] 31)) := by
    have q0 : ∀ k, (Value.slice sb0 n sc0).ownBlock = some k → w4.heap.size ≤ k ∧ k < w5.heap.size := fun k hk => ⟨o0 k hk, p0.lt k hk⟩
    have q1 : ∀ k, (Value.slice sb1 n sc1).ownBlock = some k → w5.heap.size + 1 + 1 ≤ k ∧ k < w6.heap.size := fun k hk => ⟨by have := o1 k hk; rw [size_al, size_al] at this; exact this, p1.lt k hk⟩
    have q2 : ∀ k, (Value.slice sb2 1 sc2).ownBlock = some k → w6.heap.size + 1 + 1 ≤ k ∧ k < w7.heap.size := fun k hk => ⟨by have := o2 k hk; rw [size_al, size_al] at this; exact this, p2.lt k hk⟩
    refine ⟨?_, ?_, ?_, ?_, ?_, ?_, ?_⟩
    · exact (t6'.block _ (by rw [size_al, size_al]; omega)).trans (by rw [heap_al, if_neg (by rw [size_al]; omega)]; exact heap_alloc_new w5 _)
    · exact (t7.block _ (by rw [size_al, size_al]; omega)).trans (by rw [heap_al, if_neg (by rw [size_al]; omega)]; exact heap_alloc_new w6 _)
    · unfold FB; rw [heap_al, if_neg (by rw [size_al]; omega)]; exact heap_alloc_new w7 _
    · intro i hi
      rcases (by omega : i = 0 ∨ i = 1 ∨ i = 2) with rfl | rfl | rfl
      · exact p0.below fun k _ hk => t5.block k hk
      · exact p1.below fun k _ hk => t6.block k hk
      · exact p2.below fun k _ hk => e1.block k hk
    · intro i j hi hj hij k hk hk2
      rcases (by omega : i = 0 ∨ i = 1 ∨ i = 2) with rfl | rfl | rfl <;> rcases (by omega : j = 0 ∨ j = 1 ∨ j = 2) with rfl | rfl | rfl
      · exact hij rfl
      · have a := q0 k hk; have b := q1 k hk2; omega
      · have a := q0 k hk; have b := q2 k hk2; omega
      · have a := q1 k hk; have b := q0 k hk2; omega
      · exact hij rfl
      · have a := q1 k hk; have b := q2 k hk2; omega
      · have a := q2 k hk; have b := q0 k hk2; omega
      · have a := q2 k hk; have b := q1 k hk2; omega
      · exact hij rfl
    · intro i hi k hk
      rcases (by omega : i = 0 ∨ i = 1 ∨ i = 2) with rfl | rfl | rfl
      · have a := q0 k hk; omega
      · have a := q1 k hk; omega
      · have a := q2 k hk; omega
    · exact hb9.trans (e1.mono hb9.size)
  obtain ⟨A0, hA0⟩ : ∃ A, w5.heap.size = A := ⟨_, rfl⟩
  obtain ⟨A1, hA1⟩ : ∃ A, w6.heap.size = A := ⟨_, rfl⟩
  obtain ⟨A2, hA2⟩ : ∃ A, w7.heap.size = A := ⟨_, rfl⟩
  go_wp2_with fail
  rw [hA0, hA1, hA2] at h8
  try rw [hA0]
  try rw [hA1]
  try rw [hA2]
  obtain ⟨s, hs⟩ : ∃ s : Nat → Value, s = fun i => if i = 0 then .slice sb0 n sc0 else if i = 1 then .slice sb1 n sc1 else .slice sb2 1 sc2 := ⟨_, rfl⟩
  obtain ⟨L0, hL0⟩ : ∃ L0 : Nat → List (Int × Int), L0 = fun i => if i = 2 then [(3, 1)] else L := ⟨_, rfl⟩
  rw [← hs, ← hL0] at h8
  have hs0 : s 0 = .slice sb0 n sc0 := by rw [hs]; rfl
  have hs1 : s 1 = .slice sb1 n sc1 := by rw [hs]; rfl
  have hs2 : s 2 = .slice sb2 1 sc2 := by rw [hs]; rfl
  obtain ⟨P, hP⟩ : ∃ P, P = Ap w A0 A1 A2 s L0 := ⟨_, rfl⟩
  have hnext : Hid (∀ W W' : World, P W → Below W.heap.size W W' → P W') := fun W W' h hb => by subst hP; exact h.below hb
  have hcells : Hid (∀ W, P W → W.cell? ⟨A0, 10, none⟩ = some (.slice sb0 n sc0) ∧ W.cell? ⟨A1, 10, none⟩ = some (.slice sb1 n sc1) ∧ W.cell? ⟨A2, 10, none⟩ = some (.slice sb2 1 sc2)) := fun W h => by
    subst hP
    rw [← hs0, ← hs1, ← hs2]
    exact ⟨h.f0.cell 10, h.f1.cell 10, h.f2.cell 10⟩
  have hrws : Hid (∀ W, P W → Rws w (W.alloc (.cells #[.slice sb0 n sc0, .slice sb1 n sc1, .slice sb2 1 sc2] 35)) W.heap.size s L0) := fun W h => by subst hP; rw [← hs0, ← hs1, ← hs2]; exact h.rws
  have k11 : Hid (∀ W, P W → Calls Tryd.prog 11 #[.slice vb vn vc] W fun e w' => ∃ ob oc, e = .returned (.slice ob n oc) ∧ PRow w' (.slice ob n oc) L ∧ P w') := fun W h => by
    refine (C11.out W (by subst hP; exact h.bel)).mono ?_
    rintro e w' ⟨ob, oc, rfl, h1, h2⟩
    exact ⟨ob, oc, rfl, h1, hnext.out _ _ h h2⟩
  have k14 : Hid (∀ W (sb : Option Addr) (sc : Nat) (ob : Option Addr) (oc : Nat), (sb = sb0 ∧ sc = sc0 ∨ sb = sb1 ∧ sc = sc1) → P W → PRow W (.slice ob n oc) L → Calls Tryd.prog 14 #[.slice sb n sc, .slice ob n oc] W fun e w' => e = .returned (.bool true) ∧ P w') := fun W sb sc ob oc hor h hq => by
    refine (C14.out W _ _ _ _ ?_ hq).mono ?_
    · rcases hor with ⟨rfl, rfl⟩ | ⟨rfl, rfl⟩
      · subst hP; have := h.row 0 (by omega); rw [hs0, hL0] at this; exact this
      · subst hP; have := h.row 1 (by omega); rw [hs1, hL0] at this; exact this
    · rintro e w' ⟨rfl, h2⟩
      exact ⟨rfl, hnext.out _ _ h h2⟩
  have HL0 : Hid ((L0 0).length = n ∧ (L0 1).length = n ∧ (L0 2).length = 1 ∧ s 0 = .slice sb0 n sc0 ∧ s 1 = .slice sb1 n sc1 ∧ s 2 = .slice sb2 1 sc2) := ⟨by rw [hL0]; exact HN.out.1, by rw [hL0]; exact HN.out.1, by rw [hL0]; rfl, hs0, hs1, hs2⟩
  rw [← hP] at h8
  clear hP hs hL0 hs0 hs1 hs2 C11 C10 C9 C13 C13b C14 e1 e2 e3 z3 z2 y7 t7 t6 y6 t6' t5 u7 u6 p0 p1 p2 o0 o1 o2 hb9 hb8 hb7 hb6 hb5 hb4 hb9' hb7' hb5' hs45 hs5
  unfold fv fSet at h8
  generalize (w7.alloc (.cells #[.int .i64 4, .int .i64 0, .int .i64 0, .string ⟨#[]⟩, .int .i64 0, .int .i64 0, .bool false, .int .i64 0, .int .i64 0, .int .i64 0, .slice sb2 1 sc2] 28)).alloc (.cells #[.int .i64 0, .int .i64 0] 31) = W8 at h8 ⊢
  have h8d := hnext.out _ _ h8 (Below.refl _ W8).drew
  obtain ⟨d0, d1, d2⟩ := hcells.out _ h8
  go_cut [86] from 21 (fun t wx => t = .bool false ∧ P wx)
  case first =>
    have hfull : Hid (∀ W, P W → W.cell? ⟨A0, 10, none⟩ = some (.slice sb0 n sc0) ∧ W.cell? ⟨A1, 10, none⟩ = some (.slice sb1 n sc1) ∧ W.cell? ⟨A2, 10, none⟩ = some (.slice sb2 1 sc2) ∧ P W) := fun W h => ⟨(hcells.out _ h).1, (hcells.out _ h).2.1, (hcells.out _ h).2.2, h⟩
    clear d0 d1 d2
    refine wp_region_held_drew (S := (fun W => W.cell? ⟨A0, 10, none⟩ = some (.slice sb0 n sc0) ∧ W.cell? ⟨A1, 10, none⟩ = some (.slice sb1 n sc1) ∧ W.cell? ⟨A2, 10, none⟩ = some (.slice sb2 1 sc2) ∧ P W)) (by kernel_rfl) (hfull.out _ h8d) (fun hHeld => ?_)
    refine wpAnyH_take (i := 0) (oi := { dst := some 52, op := Op.move (Operand.tmp 6), type := 3, pos := "law.go:89", after := #[], guard := none }) (v := ?vv0) rfl (by kernel_rfl) (by kernel_rfl) (by kernel_rfl) (fun _ _ _ h => h) (Or.inl ⟨by rfl, ?hy0⟩) (by assumption) ?rest0
    case hy0 => (intro w hSw; (try dsimp only at hSw); go_simp; all_goals with_reducible rfl)
    try simp only [Act.put, List.setIfInBounds_toArray, List.set_cons_zero, List.set_cons_succ]
    refine wpAnyH_take (i := 1) (oi := { dst := some 53, op := Op.move (Operand.tmp 3), type := 9, pos := "law.go:89", after := #[], guard := none }) (v := ?vv1) rfl (by kernel_rfl) (by kernel_rfl) (by kernel_rfl) (fun _ _ _ h => h) (Or.inl ⟨by rfl, ?hy1⟩) (by assumption) ?rest1
    case hy1 => (intro w hSw; (try dsimp only at hSw); go_simp; all_goals with_reducible rfl)
    try simp only [Act.put, List.setIfInBounds_toArray, List.set_cons_zero, List.set_cons_succ]
    refine wpAnyH_ready (rs := [2]) (by kernel_rfl) (by simp) ?_
    refine AllReadyH.cons (o := { dst := some 54, op := Op.call { callee := Callee.builtin Builtin.len, args := #[Operand.tmp 53], argTypes := #[9] }, type := 3, pos := "law.go:89", after := #[{ on := 1, ground := Ground.data }], guard := none }) rfl (fun K hK => ?_) AllReadyH.nil
    go_simp
    refine hK.out _ _ (by assumption) (fun _ => ?_)
    clear hK K
    try simp only [Act.put, List.setIfInBounds_toArray, List.set_cons_zero, List.set_cons_succ]
    refine wpAnyH_take (i := 3) (oi := { dst := some 55, op := Op.binOp BinOp.neq 3 (Operand.tmp 52) (Operand.tmp 54) 3, type := 4, pos := "law.go:89", after := #[{ on := 0, ground := Ground.data }, { on := 2, ground := Ground.data }], guard := none }) (v := ?vv3) rfl (by kernel_rfl) (by kernel_rfl) (by kernel_rfl) (fun _ _ _ h => h) (Or.inl ⟨by rfl, ?hy3⟩) (by assumption) ?rest3
    case hy3 => (intro w hSw; (try dsimp only at hSw); go_simp; all_goals with_reducible rfl)
    try simp only [Act.put, List.setIfInBounds_toArray, List.set_cons_zero, List.set_cons_succ]
    refine wpAnyH_take (i := 4) (oi := { dst := some 56, op := Op.move (Operand.tmp 55), type := 4, pos := "law.go:89", after := #[{ on := 3, ground := Ground.data }], guard := none }) (v := ?vv4) rfl (by kernel_rfl) (by kernel_rfl) (by kernel_rfl) (fun _ _ _ h => h) (Or.inl ⟨by rfl, ?hy4⟩) (by assumption) ?rest4
    case hy4 => (intro w hSw; (try dsimp only at hSw); go_simp; all_goals with_reducible rfl)
    try simp only [Act.put, List.setIfInBounds_toArray, List.set_cons_zero, List.set_cons_succ]
    refine wpAnyH_take (i := 5) (oi := { dst := some 57, op := Op.move (Operand.tmp 9), type := 3, pos := "law.go:89", after := #[{ on := 4, ground := Ground.guard }], guard := some (4, false) }) (v := ?vv5) rfl (by kernel_rfl) (by kernel_rfl) (by kernel_rfl) (fun _ _ _ h => h) (Or.inl ⟨by rfl, ?hy5⟩) (by assumption) ?rest5
    case hy5 => (intro w hSw; (try dsimp only at hSw); go_simp; all_goals with_reducible rfl)
    try simp only [Act.put, List.setIfInBounds_toArray, List.set_cons_zero, List.set_cons_succ]
    refine wpAnyH_take (i := 6) (oi := { dst := some 58, op := Op.move (Operand.tmp 6), type := 3, pos := "law.go:89", after := #[{ on := 4, ground := Ground.guard }], guard := some (4, false) }) (v := ?vv6) rfl (by kernel_rfl) (by kernel_rfl) (by kernel_rfl) (fun _ _ _ h => h) (Or.inl ⟨by rfl, ?hy6⟩) (by assumption) ?rest6
    case hy6 => (intro w hSw; (try dsimp only at hSw); go_simp; all_goals with_reducible rfl)
    try simp only [Act.put, List.setIfInBounds_toArray, List.set_cons_zero, List.set_cons_succ]
    refine wpAnyH_take (i := 7) (oi := { dst := some 59, op := Op.binOp BinOp.neq 3 (Operand.tmp 57) (Operand.tmp 58) 3, type := 4, pos := "law.go:89", after := #[{ on := 5, ground := Ground.data }, { on := 6, ground := Ground.data }, { on := 4, ground := Ground.guard }], guard := some (4, false) }) (v := ?vv7) rfl (by kernel_rfl) (by kernel_rfl) (by kernel_rfl) (fun _ _ _ h => h) (Or.inl ⟨by rfl, ?hy7⟩) (by assumption) ?rest7
    case hy7 => (intro w hSw; (try dsimp only at hSw); go_simp; all_goals with_reducible rfl)
    try simp only [Act.put, List.setIfInBounds_toArray, List.set_cons_zero, List.set_cons_succ]
    refine wpAnyH_take (i := 8) (oi := { dst := some 60, op := Op.pick (Operand.tmp 56) (Operand.const (Value.bool true)) (Operand.tmp 59), type := 4, pos := "law.go:89", after := #[{ on := 4, ground := Ground.data }, { on := 7, ground := Ground.data }], guard := none }) (v := ?vv8) rfl (by kernel_rfl) (by kernel_rfl) (by kernel_rfl) (fun _ _ _ h => h) (Or.inl ⟨by rfl, ?hy8⟩) (by assumption) ?rest8
    case hy8 => (intro w hSw; (try dsimp only at hSw); go_simp; all_goals with_reducible rfl)
    try simp only [Act.put, List.setIfInBounds_toArray, List.set_cons_zero, List.set_cons_succ]
    refine wpAnyH_take (i := 9) (oi := { dst := some 61, op := Op.move (Operand.tmp 60), type := 4, pos := "law.go:89", after := #[{ on := 8, ground := Ground.data }, { on := 4, ground := Ground.chain }], guard := none }) (v := ?vv9) rfl (by kernel_rfl) (by kernel_rfl) (by kernel_rfl) (fun _ _ _ h => h) (Or.inl ⟨by rfl, ?hy9⟩) (by assumption) ?rest9
    case hy9 => (intro w hSw; (try dsimp only at hSw); go_simp; all_goals with_reducible rfl)
    try simp only [Act.put, List.setIfInBounds_toArray, List.set_cons_zero, List.set_cons_succ]
    refine wpAnyH_take (i := 10) (oi := { dst := some 62, op := Op.move (Operand.tmp 12), type := 3, pos := "law.go:89", after := #[{ on := 9, ground := Ground.guard }], guard := some (9, false) }) (v := ?vv10) rfl (by kernel_rfl) (by kernel_rfl) (by kernel_rfl) (fun _ _ _ h => h) (Or.inl ⟨by rfl, ?hy10⟩) (by assumption) ?rest10
    case hy10 => (intro w hSw; (try dsimp only at hSw); go_simp; all_goals with_reducible rfl)
    try simp only [Act.put, List.setIfInBounds_toArray, List.set_cons_zero, List.set_cons_succ]
    refine wpAnyH_take (i := 11) (oi := { dst := some 63, op := Op.binOp BinOp.neq 3 (Operand.tmp 62) (Operand.const (Value.int IntKind.i64 15)) 3, type := 4, pos := "law.go:89", after := #[{ on := 10, ground := Ground.data }, { on := 9, ground := Ground.guard }], guard := some (9, false) }) (v := ?vv11) rfl (by kernel_rfl) (by kernel_rfl) (by kernel_rfl) (fun _ _ _ h => h) (Or.inl ⟨by rfl, ?hy11⟩) (by assumption) ?rest11
    case hy11 => (intro w hSw; (try dsimp only at hSw); go_simp; all_goals with_reducible rfl)
    try simp only [Act.put, List.setIfInBounds_toArray, List.set_cons_zero, List.set_cons_succ]
    refine wpAnyH_take (i := 12) (oi := { dst := some 64, op := Op.pick (Operand.tmp 61) (Operand.const (Value.bool true)) (Operand.tmp 63), type := 4, pos := "law.go:89", after := #[{ on := 9, ground := Ground.data }, { on := 11, ground := Ground.data }], guard := none }) (v := ?vv12) rfl (by kernel_rfl) (by kernel_rfl) (by kernel_rfl) (fun _ _ _ h => h) (Or.inl ⟨by rfl, ?hy12⟩) (by assumption) ?rest12
    case hy12 => (intro w hSw; (try dsimp only at hSw); go_simp; all_goals with_reducible rfl)
    try simp only [Act.put, List.setIfInBounds_toArray, List.set_cons_zero, List.set_cons_succ]
    refine wpAnyH_take (i := 13) (oi := { dst := some 65, op := Op.move (Operand.tmp 64), type := 4, pos := "law.go:89", after := #[{ on := 12, ground := Ground.data }, { on := 9, ground := Ground.chain }], guard := none }) (v := ?vv13) rfl (by kernel_rfl) (by kernel_rfl) (by kernel_rfl) (fun _ _ _ h => h) (Or.inl ⟨by rfl, ?hy13⟩) (by assumption) ?rest13
    case hy13 => (intro w hSw; (try dsimp only at hSw); go_simp; all_goals with_reducible rfl)
    try simp only [Act.put, List.setIfInBounds_toArray, List.set_cons_zero, List.set_cons_succ]
    refine wpAnyH_take (i := 14) (oi := { dst := some 66, op := Op.fieldAddr 28 (Operand.tmp 5) 10, type := 0, pos := "law.go:89", after := #[{ on := 13, ground := Ground.guard }], guard := some (13, false) }) (v := ?vv14) rfl (by kernel_rfl) (by kernel_rfl) (by kernel_rfl) (fun _ _ _ h => h) (Or.inl ⟨by rfl, ?hy14⟩) (by assumption) ?rest14
    case hy14 => (intro w hSw; (try dsimp only at hSw); go_simp; all_goals with_reducible rfl)
    try simp only [Act.put, List.setIfInBounds_toArray, List.set_cons_zero, List.set_cons_succ]
    refine wpAnyH_take (i := 15) (oi := { dst := some 67, op := Op.load 22 (Operand.tmp 66), type := 22, pos := "law.go:89", after := #[{ on := 14, ground := Ground.data }, { on := 13, ground := Ground.guard }], guard := some (13, false) }) (v := ?vv15) rfl (by kernel_rfl) (by kernel_rfl) (by kernel_rfl) (fun _ _ _ h => h) (Or.inl ⟨by rfl, ?hy15⟩) (by assumption) ?rest15
    case hy15 => (intro w hSw; (try dsimp only at hSw); go_simp; all_goals with_reducible rfl)
    try simp only [Act.put, List.setIfInBounds_toArray, List.set_cons_zero, List.set_cons_succ]
    refine wpAnyH_take (i := 16) (oi := { dst := some 68, op := Op.move (Operand.tmp 0), type := 22, pos := "law.go:89", after := #[{ on := 13, ground := Ground.guard }], guard := some (13, false) }) (v := ?vv16) rfl (by kernel_rfl) (by kernel_rfl) (by kernel_rfl) (fun _ _ _ h => h) (Or.inl ⟨by rfl, ?hy16⟩) (by assumption) ?rest16
    case hy16 => (intro w hSw; (try dsimp only at hSw); go_simp; all_goals with_reducible rfl)
    try simp only [Act.put, List.setIfInBounds_toArray, List.set_cons_zero, List.set_cons_succ]
    refine wpAnyH_ready (rs := [17]) (by kernel_rfl) (by simp) ?_
    refine AllReadyH.cons (o := { dst := some 69, op := Op.call { callee := Callee.value (Operand.func 11), args := #[Operand.tmp 68], argTypes := #[22] }, type := 22, pos := "law.go:89", after := #[{ on := 16, ground := Ground.data }, { on := 13, ground := Ground.chain }, { on := 13, ground := Ground.guard }], guard := some (13, false) }) rfl (fun K hK => ?_) AllReadyH.nil
    go_simp
    refine (k11.out _ (And.right (And.right (And.right (by assumption))))).mono ?_
    rintro e' w11 ⟨ob11, oc11, rfl, hq11, hb11⟩
    go_wp2_with fail
    refine hK.out _ _ (hfull.out _ hb11) (fun hHeld11 => ?_)
    clear hK K
    try simp only [Act.put, List.setIfInBounds_toArray, List.set_cons_zero, List.set_cons_succ]
    refine wpAnyH_ready (rs := [18]) (by kernel_rfl) (by simp) ?_
    refine AllReadyH.cons (o := { dst := some 70, op := Op.call { callee := Callee.value (Operand.func 14), args := #[Operand.tmp 67, Operand.tmp 69], argTypes := #[22, 22] }, type := 4, pos := "law.go:89", after := #[{ on := 15, ground := Ground.data }, { on := 17, ground := Ground.data }, { on := 17, ground := Ground.chain }, { on := 13, ground := Ground.guard }], guard := some (13, false) }) rfl (fun K hK => ?_) AllReadyH.nil
    go_simp
    refine (k14.out _ _ _ _ _ (.inl ⟨rfl, rfl⟩) hb11 hq11).mono ?_
    rintro e' w12 ⟨rfl, hb12⟩
    go_wp2_with fail
    refine hK.out _ _ (hfull.out _ hb12) (fun hHeld12 => ?_)
    clear hK K
    try simp only [Act.put, List.setIfInBounds_toArray, List.set_cons_zero, List.set_cons_succ]
    refine wpAnyH_take (i := 19) (oi := { dst := some 71, op := Op.unOp UnOp.not 4 (Operand.tmp 70), type := 4, pos := "law.go:89", after := #[{ on := 18, ground := Ground.data }, { on := 13, ground := Ground.guard }], guard := some (13, false) }) (v := ?vv19) rfl (by kernel_rfl) (by kernel_rfl) (by kernel_rfl) (fun _ _ _ h => h) (Or.inl ⟨by rfl, ?hy19⟩) (by assumption) ?rest19
    case hy19 => (intro w hSw; (try dsimp only at hSw); go_simp; all_goals with_reducible rfl)
    try simp only [Act.put, List.setIfInBounds_toArray, List.set_cons_zero, List.set_cons_succ]
    refine wpAnyH_take (i := 20) (oi := { dst := some 72, op := Op.pick (Operand.tmp 65) (Operand.const (Value.bool true)) (Operand.tmp 71), type := 4, pos := "law.go:89", after := #[{ on := 13, ground := Ground.data }, { on := 19, ground := Ground.data }], guard := none }) (v := ?vv20) rfl (by kernel_rfl) (by kernel_rfl) (by kernel_rfl) (fun _ _ _ h => h) (Or.inl ⟨by rfl, ?hy20⟩) (by assumption) ?rest20
    case hy20 => (intro w hSw; (try dsimp only at hSw); go_simp; all_goals with_reducible rfl)
    try simp only [Act.put, List.setIfInBounds_toArray, List.set_cons_zero, List.set_cons_succ]
    refine wpAnyH_take (i := 21) (oi := { dst := some 73, op := Op.move (Operand.tmp 72), type := 4, pos := "law.go:89", after := #[{ on := 20, ground := Ground.data }, { on := 18, ground := Ground.chain }], guard := none }) (v := ?vv21) rfl (by kernel_rfl) (by kernel_rfl) (by kernel_rfl) (fun _ _ _ h => h) (Or.inl ⟨by rfl, ?hy21⟩) (by assumption) ?rest21
    case hy21 => (intro w hSw; (try dsimp only at hSw); go_simp; all_goals with_reducible rfl)
    try simp only [Act.put, List.setIfInBounds_toArray, List.set_cons_zero, List.set_cons_succ]
    refine wpAnyH_take (i := 22) (oi := { dst := some 74, op := Op.fieldAddr 28 (Operand.tmp 8) 10, type := 0, pos := "law.go:89", after := #[{ on := 21, ground := Ground.guard }], guard := some (21, false) }) (v := ?vv22) rfl (by kernel_rfl) (by kernel_rfl) (by kernel_rfl) (fun _ _ _ h => h) (Or.inl ⟨by rfl, ?hy22⟩) (by assumption) ?rest22
    case hy22 => (intro w hSw; (try dsimp only at hSw); go_simp; all_goals with_reducible rfl)
    try simp only [Act.put, List.setIfInBounds_toArray, List.set_cons_zero, List.set_cons_succ]
    refine wpAnyH_take (i := 23) (oi := { dst := some 75, op := Op.load 22 (Operand.tmp 74), type := 22, pos := "law.go:89", after := #[{ on := 22, ground := Ground.data }, { on := 21, ground := Ground.guard }], guard := some (21, false) }) (v := ?vv23) rfl (by kernel_rfl) (by kernel_rfl) (by kernel_rfl) (fun _ _ _ h => h) (Or.inl ⟨by rfl, ?hy23⟩) (by assumption) ?rest23
    case hy23 => (intro w hSw; (try dsimp only at hSw); go_simp; all_goals with_reducible rfl)
    try simp only [Act.put, List.setIfInBounds_toArray, List.set_cons_zero, List.set_cons_succ]
    refine wpAnyH_take (i := 24) (oi := { dst := some 76, op := Op.move (Operand.tmp 0), type := 22, pos := "law.go:89", after := #[{ on := 21, ground := Ground.guard }], guard := some (21, false) }) (v := ?vv24) rfl (by kernel_rfl) (by kernel_rfl) (by kernel_rfl) (fun _ _ _ h => h) (Or.inl ⟨by rfl, ?hy24⟩) (by assumption) ?rest24
    case hy24 => (intro w hSw; (try dsimp only at hSw); go_simp; all_goals with_reducible rfl)
    try simp only [Act.put, List.setIfInBounds_toArray, List.set_cons_zero, List.set_cons_succ]
    refine wpAnyH_ready (rs := [25]) (by kernel_rfl) (by simp) ?_
    refine AllReadyH.cons (o := { dst := some 77, op := Op.call { callee := Callee.value (Operand.func 11), args := #[Operand.tmp 76], argTypes := #[22] }, type := 22, pos := "law.go:89", after := #[{ on := 24, ground := Ground.data }, { on := 21, ground := Ground.chain }, { on := 21, ground := Ground.guard }], guard := some (21, false) }) rfl (fun K hK => ?_) AllReadyH.nil
    go_simp
    refine (k11.out _ (And.right (And.right (And.right (by assumption))))).mono ?_
    rintro e' w13 ⟨ob13, oc13, rfl, hq13, hb13⟩
    go_wp2_with fail
    refine hK.out _ _ (hfull.out _ hb13) (fun hHeld13 => ?_)
    clear hK K
    try simp only [Act.put, List.setIfInBounds_toArray, List.set_cons_zero, List.set_cons_succ]
    refine wpAnyH_ready (rs := [26]) (by kernel_rfl) (by simp) ?_
    refine AllReadyH.cons (o := { dst := some 78, op := Op.call { callee := Callee.value (Operand.func 14), args := #[Operand.tmp 75, Operand.tmp 77], argTypes := #[22, 22] }, type := 4, pos := "law.go:89", after := #[{ on := 23, ground := Ground.data }, { on := 25, ground := Ground.data }, { on := 25, ground := Ground.chain }, { on := 21, ground := Ground.guard }], guard := some (21, false) }) rfl (fun K hK => ?_) AllReadyH.nil
    go_simp
    refine (k14.out _ _ _ _ _ (.inr ⟨rfl, rfl⟩) hb13 hq13).mono ?_
    rintro e' w14 ⟨rfl, hb14⟩
    go_wp2_with fail
    refine hK.out _ _ (hfull.out _ hb14) (fun hHeld14 => ?_)
    clear hK K
    try simp only [Act.put, List.setIfInBounds_toArray, List.set_cons_zero, List.set_cons_succ]
    refine wpAnyH_take (i := 27) (oi := { dst := some 79, op := Op.unOp UnOp.not 4 (Operand.tmp 78), type := 4, pos := "law.go:89", after := #[{ on := 26, ground := Ground.data }, { on := 21, ground := Ground.guard }], guard := some (21, false) }) (v := ?vv27) rfl (by kernel_rfl) (by kernel_rfl) (by kernel_rfl) (fun _ _ _ h => h) (Or.inl ⟨by rfl, ?hy27⟩) (by assumption) ?rest27
    case hy27 => (intro w hSw; (try dsimp only at hSw); go_simp; all_goals with_reducible rfl)
    try simp only [Act.put, List.setIfInBounds_toArray, List.set_cons_zero, List.set_cons_succ]
    refine wpAnyH_take (i := 28) (oi := { dst := some 80, op := Op.pick (Operand.tmp 73) (Operand.const (Value.bool true)) (Operand.tmp 79), type := 4, pos := "law.go:89", after := #[{ on := 21, ground := Ground.data }, { on := 27, ground := Ground.data }], guard := none }) (v := ?vv28) rfl (by kernel_rfl) (by kernel_rfl) (by kernel_rfl) (fun _ _ _ h => h) (Or.inl ⟨by rfl, ?hy28⟩) (by assumption) ?rest28
    case hy28 => (intro w hSw; (try dsimp only at hSw); go_simp; all_goals with_reducible rfl)
    try simp only [Act.put, List.setIfInBounds_toArray, List.set_cons_zero, List.set_cons_succ]
    refine wpAnyH_take (i := 29) (oi := { dst := some 81, op := Op.move (Operand.tmp 80), type := 4, pos := "law.go:89", after := #[{ on := 28, ground := Ground.data }, { on := 26, ground := Ground.chain }], guard := none }) (v := ?vv29) rfl (by kernel_rfl) (by kernel_rfl) (by kernel_rfl) (fun _ _ _ h => h) (Or.inl ⟨by rfl, ?hy29⟩) (by assumption) ?rest29
    case hy29 => (intro w hSw; (try dsimp only at hSw); go_simp; all_goals with_reducible rfl)
    try simp only [Act.put, List.setIfInBounds_toArray, List.set_cons_zero, List.set_cons_succ]
    refine wpAnyH_take (i := 30) (oi := { dst := some 82, op := Op.fieldAddr 28 (Operand.tmp 11) 10, type := 0, pos := "law.go:89", after := #[{ on := 29, ground := Ground.guard }], guard := some (29, false) }) (v := ?vv30) rfl (by kernel_rfl) (by kernel_rfl) (by kernel_rfl) (fun _ _ _ h => h) (Or.inl ⟨by rfl, ?hy30⟩) (by assumption) ?rest30
    case hy30 => (intro w hSw; (try dsimp only at hSw); go_simp; all_goals with_reducible rfl)
    try simp only [Act.put, List.setIfInBounds_toArray, List.set_cons_zero, List.set_cons_succ]
    refine wpAnyH_take (i := 31) (oi := { dst := some 83, op := Op.load 22 (Operand.tmp 82), type := 22, pos := "law.go:89", after := #[{ on := 30, ground := Ground.data }, { on := 29, ground := Ground.guard }], guard := some (29, false) }) (v := ?vv31) rfl (by kernel_rfl) (by kernel_rfl) (by kernel_rfl) (fun _ _ _ h => h) (Or.inl ⟨by rfl, ?hy31⟩) (by assumption) ?rest31
    case hy31 => (intro w hSw; (try dsimp only at hSw); go_simp; all_goals with_reducible rfl)
    try simp only [Act.put, List.setIfInBounds_toArray, List.set_cons_zero, List.set_cons_succ]
    refine wpAnyH_ready (rs := [32]) (by kernel_rfl) (by simp) ?_
    refine AllReadyH.cons (o := { dst := some 84, op := Op.call { callee := Callee.builtin Builtin.len, args := #[Operand.tmp 83], argTypes := #[22] }, type := 3, pos := "law.go:89", after := #[{ on := 31, ground := Ground.data }, { on := 29, ground := Ground.guard }], guard := some (29, false) }) rfl (fun K hK => ?_) AllReadyH.nil
    go_simp
    refine hK.out _ _ (by assumption) (fun _ => ?_)
    clear hK K
    try simp only [Act.put, List.setIfInBounds_toArray, List.set_cons_zero, List.set_cons_succ]
    refine wpAnyH_take (i := 33) (oi := { dst := some 85, op := Op.binOp BinOp.neq 3 (Operand.tmp 84) (Operand.const (Value.int IntKind.i64 1)) 3, type := 4, pos := "law.go:89", after := #[{ on := 32, ground := Ground.data }, { on := 29, ground := Ground.guard }], guard := some (29, false) }) (v := ?vv33) rfl (by kernel_rfl) (by kernel_rfl) (by kernel_rfl) (fun _ _ _ h => h) (Or.inl ⟨by rfl, ?hy33⟩) (by assumption) ?rest33
    case hy33 => (intro w hSw; (try dsimp only at hSw); go_simp; all_goals with_reducible rfl)
    try simp only [Act.put, List.setIfInBounds_toArray, List.set_cons_zero, List.set_cons_succ]
    refine wpAnyH_take (i := 34) (oi := { dst := some 86, op := Op.pick (Operand.tmp 81) (Operand.const (Value.bool true)) (Operand.tmp 85), type := 4, pos := "law.go:89", after := #[{ on := 29, ground := Ground.data }, { on := 33, ground := Ground.data }], guard := none }) (v := ?vv34) rfl (by kernel_rfl) (by kernel_rfl) (by kernel_rfl) (fun _ _ _ h => h) (Or.inl ⟨by rfl, ?hy34⟩) (by assumption) ?rest34
    case hy34 => (intro w hSw; (try dsimp only at hSw); go_simp; all_goals with_reducible rfl)
    try simp only [Act.put, List.setIfInBounds_toArray, List.set_cons_zero, List.set_cons_succ]
    refine wpAnyH_done (by kernel_rfl) ?_ _
    go_wp2_with fail
    go_meet
    case rel => exact ⟨rfl, hb14⟩
  case rest =>
    obtain ⟨rfl, hS⟩ := hcut
    clear d0 d1 d2 h8d h8
    obtain ⟨d0, d1, d2⟩ := hcells.out _ hS
    have hR0 := hrws.out _ hS
    have hE0 : Below w.heap.size w wc := by
      have := hR0.hE
      exact ⟨hR0.bel.os, hR0.bel.tape, hR0.bel.output, this, fun k hk => by have := hR0.bel.block k hk; rwa [heap_al, if_neg (by omega)] at this⟩
    clear hS k11 k14
    go_wp2_with fail
    obtain ⟨E, hE⟩ : ∃ E, wc.heap.size = E := ⟨_, rfl⟩
    rw [hE] at hR0
    try rw [hE]
    generalize wc.alloc (.cells #[.slice sb0 n sc0, .slice sb1 n sc1, .slice sb2 1 sc2] 35) = W10 at hR0 ⊢
    have hlen0 : Hid (∀ r, r < 3 → (L0 r).length ≤ 2730) := fun r hr => by
      obtain ⟨a0, a1, a2, _⟩ := HL0.out
      have := HN.out.2
      rcases (by omega : r = 0 ∨ r = 1 ∨ r = 2) with rfl | rfl | rfl <;> omega
    clear hcells hrws hnext d0 d1 d2 hE hE0 HL0 HN
    go_loopw [15] (fun x wr => ∃ i : Nat, i ≤ 3 ∧ x = .int .i64 (i : Int) ∧ Hid (Rws w wr E s (fillAt L0 i 0))) (fun x _ => 3 - (intOf x).toNat)
    case atStart => exact ⟨0, by omega, rfl, hR0.congr fun r _ => (fillAt_start L0 r).symm⟩
    case round =>
      obtain ⟨i, hi, hx15, HR⟩ := hrel
      clear hR0
      by_cases hi3 : i < 3
      · subst hx15
        obtain ⟨bi, ci, hsi⟩ := HR.out.slice i hi3
        rw [fillAt_length L0 i 0 i (by omega)] at hsi
        obtain ⟨ni, hni⟩ : ∃ ni, (L0 i).length = ni := ⟨_, rfl⟩
        rw [hni] at hsi
        have HNI : Hid ((L0 i).length = ni ∧ s i = .slice bi ni ci) := ⟨hni, hsi⟩
        have hi3i : (i : Int) < 3 := by omega
        have w100 : wrap64 (100 + (i : Int)) = 100 + (i : Int) := wrap64_small _ (by omega) (by omega)
        clear hni hsi
        go_wp2_with fail
        go_loopw [16] (fun y wq => ∃ j : Nat, j ≤ ni ∧ y = .int .i64 (j : Int) ∧ Hid (Rws w wq E s (fillAt L0 i j))) (fun y _ => ni - (intOf y).toNat)
        case atStart => exact ⟨0, by omega, rfl, HR⟩
        case round =>
          obtain ⟨j, hj, rfl, HJ⟩ := hrel
          obtain ⟨hni, hsi⟩ := HNI.out
          have hcE := HJ.out.cell i hi3
          rw [hsi] at hcE
          by_cases hjn : j < ni
          · obtain ⟨g, cap, e, h1, h2, h3, ⟨u1, h4⟩, ⟨u2, h5⟩, h6, h7, h8⟩ := HJ.out.set i j hi3 (by rw [fillAt_length L0 i j i (by omega)]; omega) (100 + (i : Int)) (j : Int)
            rw [hsi] at e
            rw [fillAt_length L0 i j i (by omega), hni] at e h1
            injection e with e1 e2 e3
            subst e1
            subst e3
            have h8' := h8.congr fun r _ => fillAt_step L0 i j r (by omega)
            replace h8' : Hid _ := h8'
            have hjni : (j : Int) < (ni : Int) := by omega
            clear h8 hni hsi HJ
            go_wp2_with fail
            go_roundw
            case rel => exact ⟨j + 1, by omega, by simp, h8'⟩
            case measure => simp [intOf]; omega
          · obtain rfl : j = ni := by omega
            have hnx : Hid (Rws w wr E s (fillAt L0 (i + 1) 0)) := by
              have := HJ.out
              rw [← hni] at this
              exact this.congr fun r _ => fillAt_next L0 i r
            have hjni : ¬ (j : Int) < (j : Int) := by omega
            clear hni hsi HJ
            go_wp2_with fail
            go_roundw
            case rel => exact ⟨i + 1, by omega, by simp, hnx⟩
            case measure => simp [intOf]; omega
      · obtain rfl : i = 3 := by omega
        replace hx15 : u15 = .int .i64 3 := hx15
        subst hx15
        obtain ⟨F, hF⟩ : ∃ F, fillAt L0 3 0 = F := ⟨_, rfl⟩
        rw [hF] at HR
        have hFl : Hid (∀ r, r < 3 → (F r).length ≤ 2730 ∧ F r = fill r (F r).length) := fun r hr => by
          have h1 := fillAt_length L0 3 0 r (by omega)
          have h2 : fillAt L0 3 0 r = fill r (L0 r).length := by unfold fillAt; rw [if_pos hr]
          rw [hF] at h1 h2
          exact ⟨by rw [h1]; exact hlen0.out r hr, by rw [h1]; exact h2⟩
        have hL0' := Lng.start HR.out (fun _ => .slice none 0 0)
        clear hF hlen0
        obtain ⟨G, hG⟩ : ∃ G, wr.heap.size = G := ⟨_, rfl⟩
        rw [hG] at hL0'
        clear HR
        go_wp2_with fail
        try rw [hG]
        generalize wr.alloc (.cells #[.slice none 0 0, .slice none 0 0, .slice none 0 0] 35) = W11 at hL0' ⊢
        go_loopw [18] (fun x wr => ∃ (i : Nat) (t : Nat → Value), i ≤ 3 ∧ x = .int .i64 (i : Int) ∧ Hid (Lng w wr E G s t F i)) (fun x _ => 3 - (intOf x).toNat)
        case atStart => exact ⟨0, _, by omega, rfl, hL0'⟩
        case round =>
          obtain ⟨i, t, hi, hx, HL⟩ := hrel
          clear hL0'
          rcases (by omega : i = 0 ∨ i = 1 ∨ i = 2 ∨ i = 3) with rfl | rfl | rfl | rfl
          · replace hx : u18 = .int .i64 0 := hx
            subst hx
            obtain ⟨bi, ci, hsi⟩ := HL.out.base.slice 0 (by omega)
            have hcE := HL.out.base.cell 0 (by omega)
            obtain ⟨base, cap, w12, hrun, h1, ⟨u, h2⟩, h3, h4⟩ := HL.out.more' (i := 0) 200 rfl (by omega) (by have := (hFl.out 0 (by omega)).1; omega)
            obtain ⟨ni, hni⟩ : ∃ ni, (F 0).length = ni := ⟨_, rfl⟩
            obtain ⟨n1, hn1⟩ : ∃ n1, ni + 1 = n1 := ⟨_, rfl⟩
            rw [hsi] at hcE hrun
            rw [hni] at hcE hrun h4
            rw [hn1] at hrun h4
            have h4' : Hid _ := h4
            have hrun' : Hid _ := hrun
            have hbld := built37 200
            have hElt := World.block_lt_of_cell? _ _ hcE
            clear h4 hrun hsi hni hn1 HL
            go_wp2_with (at_builtin; refine Lib.wpList_append_run _ rfl (.tmp 122) (.tmp 126) 22 22 rfl _ _ rfl rfl _ _ hrun'.out ?_)
            go_roundw
            case rel => first | exact ⟨1, by omega, rfl, _, h4'⟩ | exact ⟨1, _, by omega, rfl, h4'⟩
            case measure => decide
          · replace hx : u18 = .int .i64 1 := hx
            subst hx
            obtain ⟨bi, ci, hsi⟩ := HL.out.base.slice 1 (by omega)
            have hcE := HL.out.base.cell 1 (by omega)
            obtain ⟨base, cap, w12, hrun, h1, ⟨u, h2⟩, h3, h4⟩ := HL.out.more' (i := 1) 201 rfl (by omega) (by have := (hFl.out 1 (by omega)).1; omega)
            obtain ⟨ni, hni⟩ : ∃ ni, (F 1).length = ni := ⟨_, rfl⟩
            obtain ⟨n1, hn1⟩ : ∃ n1, ni + 1 = n1 := ⟨_, rfl⟩
            rw [hsi] at hcE hrun
            rw [hni] at hcE hrun h4
            rw [hn1] at hrun h4
            have h4' : Hid _ := h4
            have hrun' : Hid _ := hrun
            have hbld := built37 201
            have hElt := World.block_lt_of_cell? _ _ hcE
            clear h4 hrun hsi hni hn1 HL
            go_wp2_with (at_builtin; refine Lib.wpList_append_run _ rfl (.tmp 122) (.tmp 126) 22 22 rfl _ _ rfl rfl _ _ hrun'.out ?_)
            go_roundw
            case rel => first | exact ⟨2, by omega, rfl, _, h4'⟩ | exact ⟨2, _, by omega, rfl, h4'⟩
            case measure => decide
          · replace hx : u18 = .int .i64 2 := hx
            subst hx
            obtain ⟨bi, ci, hsi⟩ := HL.out.base.slice 2 (by omega)
            have hcE := HL.out.base.cell 2 (by omega)
            obtain ⟨base, cap, w12, hrun, h1, ⟨u, h2⟩, h3, h4⟩ := HL.out.more' (i := 2) 202 rfl (by omega) (by have := (hFl.out 2 (by omega)).1; omega)
            obtain ⟨ni, hni⟩ : ∃ ni, (F 2).length = ni := ⟨_, rfl⟩
            obtain ⟨n1, hn1⟩ : ∃ n1, ni + 1 = n1 := ⟨_, rfl⟩
            rw [hsi] at hcE hrun
            rw [hni] at hcE hrun h4
            rw [hn1] at hrun h4
            have h4' : Hid _ := h4
            have hrun' : Hid _ := hrun
            have hbld := built37 202
            have hElt := World.block_lt_of_cell? _ _ hcE
            clear h4 hrun hsi hni hn1 HL
            go_wp2_with (at_builtin; refine Lib.wpList_append_run _ rfl (.tmp 122) (.tmp 126) 22 22 rfl _ _ rfl rfl _ _ hrun'.out ?_)
            go_roundw
            case rel => first | exact ⟨3, by omega, rfl, _, h4'⟩ | exact ⟨3, _, by omega, rfl, h4'⟩
            case measure => decide
          · replace hx : u18 = .int .i64 3 := hx
            subst hx
            go_wp2_with fail
            go_loopw [19] (fun x wr => ∃ (i : Nat), i ≤ 3 ∧ x = .int .i64 (i : Int) ∧ Hid (Lng w wr E G s t F 3)) (fun x _ => 3 - (intOf x).toNat)
            case atStart => exact ⟨0, by omega, rfl, HL⟩
            case round =>
              clear HL
              obtain ⟨i, hi, hx, HL⟩ := hrel
              rcases (by omega : i = 0 ∨ i = 1 ∨ i = 2 ∨ i = 3) with rfl | rfl | rfl | rfl
              · replace hx : u19 = .int .i64 0 := hx
                subst hx
                obtain ⟨ni, hni⟩ : ∃ ni, (F 0).length = ni := ⟨_, rfl⟩
                have hFk : Hid (F 0 = fill 0 ni) := by have := (hFl.out 0 (by omega)).2; rw [hni] at this; exact this
                have hn27 : ni ≤ 2730 := by have := (hFl.out 0 (by omega)).1; omega
                clear hni
                go_wp2_with fail
                go_loopw [20] (fun y wq => ∃ j : Nat, j ≤ ni ∧ y = .int .i64 (j : Int) ∧ Hid (Lng w wq E G s t F 3)) (fun y _ => ni - (intOf y).toNat)
                case atStart => exact ⟨0, by omega, rfl, HL⟩
                case round =>
                  obtain ⟨j, hj, rfl, HJ⟩ := hrel
                  clear HL
                  have hcE := HJ.out.base.cell 0 (by omega)
                  have hcG := HJ.out.cell2 0 (by omega)
                  have HD : Hid (Lng w wr.drew E G s t F 3) := HJ.out.below (Below.refl _ _).drew
                  by_cases hjn : j < ni
                  · obtain ⟨g, cg, e1, a2, a3, a4, a5, g', cg', e2, b2, b3, b4, b5⟩ := HJ.out.at 0 (by omega) ni hFk.out j hjn 100 rfl
                    rw [e1] at hcE
                    rw [e2] at hcG
                    obtain ⟨n1, hn1⟩ : ∃ n1, ni + 1 = n1 := ⟨_, rfl⟩
                    rw [hn1] at hcG b2
                    have hj1 : (j : Int) < (ni : Int) := by omega
                    have hj2 : (j : Int) < (n1 : Int) := by omega
                    clear e1 e2 HJ hn1
                    go_wp2_with fail
                    go_region
                    all_goals
                      go_wp2_with fail
                      go_roundw
                      case rel => exact ⟨j + 1, by omega, by simp, HD⟩
                      case measure => simp [intOf]; omega
                  · obtain rfl : j = ni := by omega
                    obtain ⟨⟨sb, sc, e1⟩, g', cg', e2, b2, b3, b4, b5⟩ := HJ.out.last 0 (by omega) j hFk.out 200 rfl
                    rw [e1] at hcE
                    rw [e2] at hcG
                    obtain ⟨n1, hn1⟩ : ∃ n1, j + 1 = n1 := ⟨_, rfl⟩
                    rw [hn1] at hcG b2
                    have hj1 : ¬ (j : Int) < (j : Int) := by omega
                    have hj2 : (j : Int) < (n1 : Int) := by omega
                    have hbld := built37 200
                    clear e1 e2 HJ hn1
                    go_wp2_with fail
                    go_region
                    all_goals
                      go_wp2_with fail
                      go_roundw
                      case rel => exact ⟨1, by omega, rfl, HD⟩
                      case measure => decide
              · replace hx : u19 = .int .i64 1 := hx
                subst hx
                obtain ⟨ni, hni⟩ : ∃ ni, (F 1).length = ni := ⟨_, rfl⟩
                have hFk : Hid (F 1 = fill 1 ni) := by have := (hFl.out 1 (by omega)).2; rw [hni] at this; exact this
                have hn27 : ni ≤ 2730 := by have := (hFl.out 1 (by omega)).1; omega
                clear hni
                go_wp2_with fail
                go_loopw [20] (fun y wq => ∃ j : Nat, j ≤ ni ∧ y = .int .i64 (j : Int) ∧ Hid (Lng w wq E G s t F 3)) (fun y _ => ni - (intOf y).toNat)
                case atStart => exact ⟨0, by omega, rfl, HL⟩
                case round =>
                  obtain ⟨j, hj, rfl, HJ⟩ := hrel
                  clear HL
                  have hcE := HJ.out.base.cell 1 (by omega)
                  have hcG := HJ.out.cell2 1 (by omega)
                  have HD : Hid (Lng w wr.drew E G s t F 3) := HJ.out.below (Below.refl _ _).drew
                  by_cases hjn : j < ni
                  · obtain ⟨g, cg, e1, a2, a3, a4, a5, g', cg', e2, b2, b3, b4, b5⟩ := HJ.out.at 1 (by omega) ni hFk.out j hjn 101 rfl
                    rw [e1] at hcE
                    rw [e2] at hcG
                    obtain ⟨n1, hn1⟩ : ∃ n1, ni + 1 = n1 := ⟨_, rfl⟩
                    rw [hn1] at hcG b2
                    have hj1 : (j : Int) < (ni : Int) := by omega
                    have hj2 : (j : Int) < (n1 : Int) := by omega
                    clear e1 e2 HJ hn1
                    go_wp2_with fail
                    go_region
                    all_goals
                      go_wp2_with fail
                      go_roundw
                      case rel => exact ⟨j + 1, by omega, by simp, HD⟩
                      case measure => simp [intOf]; omega
                  · obtain rfl : j = ni := by omega
                    obtain ⟨⟨sb, sc, e1⟩, g', cg', e2, b2, b3, b4, b5⟩ := HJ.out.last 1 (by omega) j hFk.out 201 rfl
                    rw [e1] at hcE
                    rw [e2] at hcG
                    obtain ⟨n1, hn1⟩ : ∃ n1, j + 1 = n1 := ⟨_, rfl⟩
                    rw [hn1] at hcG b2
                    have hj1 : ¬ (j : Int) < (j : Int) := by omega
                    have hj2 : (j : Int) < (n1 : Int) := by omega
                    have hbld := built37 201
                    clear e1 e2 HJ hn1
                    go_wp2_with fail
                    go_region
                    all_goals
                      go_wp2_with fail
                      go_roundw
                      case rel => exact ⟨2, by omega, rfl, HD⟩
                      case measure => decide
              · replace hx : u19 = .int .i64 2 := hx
                subst hx
                obtain ⟨ni, hni⟩ : ∃ ni, (F 2).length = ni := ⟨_, rfl⟩
                have hFk : Hid (F 2 = fill 2 ni) := by have := (hFl.out 2 (by omega)).2; rw [hni] at this; exact this
                have hn27 : ni ≤ 2730 := by have := (hFl.out 2 (by omega)).1; omega
                clear hni
                go_wp2_with fail
                go_loopw [20] (fun y wq => ∃ j : Nat, j ≤ ni ∧ y = .int .i64 (j : Int) ∧ Hid (Lng w wq E G s t F 3)) (fun y _ => ni - (intOf y).toNat)
                case atStart => exact ⟨0, by omega, rfl, HL⟩
                case round =>
                  obtain ⟨j, hj, rfl, HJ⟩ := hrel
                  clear HL
                  have hcE := HJ.out.base.cell 2 (by omega)
                  have hcG := HJ.out.cell2 2 (by omega)
                  have HD : Hid (Lng w wr.drew E G s t F 3) := HJ.out.below (Below.refl _ _).drew
                  by_cases hjn : j < ni
                  · obtain ⟨g, cg, e1, a2, a3, a4, a5, g', cg', e2, b2, b3, b4, b5⟩ := HJ.out.at 2 (by omega) ni hFk.out j hjn 102 rfl
                    rw [e1] at hcE
                    rw [e2] at hcG
                    obtain ⟨n1, hn1⟩ : ∃ n1, ni + 1 = n1 := ⟨_, rfl⟩
                    rw [hn1] at hcG b2
                    have hj1 : (j : Int) < (ni : Int) := by omega
                    have hj2 : (j : Int) < (n1 : Int) := by omega
                    clear e1 e2 HJ hn1
                    go_wp2_with fail
                    go_region
                    all_goals
                      go_wp2_with fail
                      go_roundw
                      case rel => exact ⟨j + 1, by omega, by simp, HD⟩
                      case measure => simp [intOf]; omega
                  · obtain rfl : j = ni := by omega
                    obtain ⟨⟨sb, sc, e1⟩, g', cg', e2, b2, b3, b4, b5⟩ := HJ.out.last 2 (by omega) j hFk.out 202 rfl
                    rw [e1] at hcE
                    rw [e2] at hcG
                    obtain ⟨n1, hn1⟩ : ∃ n1, j + 1 = n1 := ⟨_, rfl⟩
                    rw [hn1] at hcG b2
                    have hj1 : ¬ (j : Int) < (j : Int) := by omega
                    have hj2 : (j : Int) < (n1 : Int) := by omega
                    have hbld := built37 202
                    clear e1 e2 HJ hn1
                    go_wp2_with fail
                    go_region
                    all_goals
                      go_wp2_with fail
                      go_roundw
                      case rel => exact ⟨3, by omega, rfl, HD⟩
                      case measure => decide
              · replace hx : u19 = .int .i64 3 := hx
                subst hx
                go_wp2
                go_ret
                exact ⟨rfl, HL.out.base.bel⟩
end Go.Proofs.YtjigjckclpccmaaDoor
