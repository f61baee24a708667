/- frame.Read. -/
import Derived.Test.YtmhbaaemihljjaaDoorA7
namespace Go.Proofs.YtmhbaaemihljjaaDoor
open Go.RowKit
set_option linter.unusedVariables false
set_option linter.unusedSimpArgs false

/-- what Read tells: the frame and its params, the bytes, the fault -/
def readS (s : ByteArray) (most : Int) : (Fr × List (Int × Int)) × Int × Int × Int :=
  if s.size < 9 then ((Fr.zero, []), 0, 0, 0)
  else if min (max most 16384) 65536 < (numS (s.extract 0 3) : Int) then ((Fr.zero, []), 0, 6, 0)
  else if s.size < 9 + numS (s.extract 0 3) then ((Fr.zero, []), 0, 0, 0)
  else if (parseS (s.extract 0 (9 + numS (s.extract 0 3)))).2.1 ≠ 0 ∧ (parseS (s.extract 0 (9 + numS (s.extract 0 3)))).2.2 = 0 then ((Fr.zero, []), 0, (parseS (s.extract 0 (9 + numS (s.extract 0 3)))).2)
  else ((parseS (s.extract 0 (9 + numS (s.extract 0 3)))).1, ((9 + numS (s.extract 0 3) : Nat) : Int), (parseS (s.extract 0 (9 + numS (s.extract 0 3)))).2)

/-- Read's answer -/
def RPost (w : World) (res : (Fr × List (Int × Int)) × Int × Int × Int) (e : Ending) (w' : World) : Prop :=
  ∃ p, e = .returned (.tuple #[.agg (fv res.1.1 p), .int .i64 res.2.1, .agg #[.int .i64 res.2.2.1, .int .i64 res.2.2.2]]) ∧ PRow w' p res.1.2 ∧ (∀ k, p.ownBlock = some k → w.heap.size ≤ k) ∧ Below w.heap.size w w'

theorem rpost_bad {w : World} {res : (Fr × List (Int × Int)) × Int × Int × Int} {n c s : Int} (h : res = ((Fr.zero, []), n, c, s)) (w' : World) (hb : Below w.heap.size w w') :
    RPost w res (.returned (.tuple #[.agg #[.int .i64 0, .int .i64 0, .int .i64 0, .string ⟨#[]⟩, .int .i64 0, .int .i64 0, .bool false, .int .i64 0, .int .i64 0, .int .i64 0, .slice none 0 0], .int .i64 n, .agg #[.int .i64 c, .int .i64 s]])) w' := by
  subst h
  exact ⟨.slice none 0 0, rfl, PRow.nil _, fun k hk => by simp [Value.ownBlock] at hk, hb⟩

theorem frozen_row {w : World} {g : Nat} {c : Array Value} {t : TypeId} (h : w.heap[g]? = some (.cells c t (0, 0))) (i : Nat) : w.frozen? ⟨g, i, none⟩ = false := by
  simp [World.frozen?, h]

theorem sets_size (g : Nat) : ∀ (l : List (Nat × Value)) (w : World), (sets w g l).heap.size = w.heap.size
  | [], _ => rfl
  | y :: r, w => (sets_size g r _).trans (by simp [World.setCell])

theorem finR (w wz : World) (f : Fr) (p q : Value) (ps : List (Int × Int)) (c x : Int) (o1 o2 : Obj) (h2 : wz.heap[w.heap.size]? = some (.cells #[.int .i64 0, .int .i64 0, .int .i64 0, .string ⟨#[]⟩, .int .i64 0, .int .i64 0, .bool false, .int .i64 0, .int .i64 0, .int .i64 0, .slice none 0 0] 28 (0, 0))) (h3 : wz.heap[w.heap.size + 1]? = some (.cells #[.int .i64 0, .int .i64 0] 30 (0, 0)))
    (hP : PRow wz q ps) (hfr : ∀ k, q.ownBlock = some k → w.heap.size + 1 + 1 ≤ k) (hbel : Below w.heap.size w wz) :
    (((sets (sets wz w.heap.size (fsets f p)) (w.heap.size + 1) [(0, .int .i64 c), (1, .int .i64 x)]).alloc o1).alloc o2).drew.heap[w.heap.size]? = some (.cells (fv f p) 28 (0, 0)) ∧
    (((sets (sets wz w.heap.size (fsets f p)) (w.heap.size + 1) [(0, .int .i64 c), (1, .int .i64 x)]).alloc o1).alloc o2).drew.heap[w.heap.size + 1]? = some (.cells #[.int .i64 c, .int .i64 x] 30 (0, 0)) ∧
    PRow (((sets (sets wz w.heap.size (fsets f p)) (w.heap.size + 1) [(0, .int .i64 c), (1, .int .i64 x)]).alloc o1).alloc o2).drew q ps ∧
    Below w.heap.size w (((sets (sets wz w.heap.size (fsets f p)) (w.heap.size + 1) [(0, .int .i64 c), (1, .int .i64 x)]).alloc o1).alloc o2).drew := by
  have l2 := (Array.getElem?_eq_some_iff.1 h3).1
  have ho : ∀ k, k < wz.heap.size → (((sets (sets wz w.heap.size (fsets f p)) (w.heap.size + 1) [(0, .int .i64 c), (1, .int .i64 x)]).alloc o1).alloc o2).drew.heap[k]? = (sets (sets wz w.heap.size (fsets f p)) (w.heap.size + 1) [(0, .int .i64 c), (1, .int .i64 x)]).heap[k]? := fun k hk => by
    rw [heap_dr, heap_al, if_neg (by rw [size_al, sets_size, sets_size]; omega), heap_al, if_neg (by rw [sets_size, sets_size]; omega)]
  refine ⟨?_, ?_, hP.below fun k hk hlt => ?_, ?_⟩
  · rw [ho _ (by omega), sets_other _ _ (by omega), sets_block _ _ _ _ _ _ h2]
    simp only [fsets, fv, List.foldl_cons, List.foldl_nil, List.setIfInBounds_toArray, List.set_cons_zero, List.set_cons_succ]
  · rw [ho _ (by omega), sets_block _ _ _ _ _ _ ((sets_other _ _ (by omega) _ _).trans h3)]
    simp only [List.foldl_cons, List.foldl_nil, List.setIfInBounds_toArray, List.set_cons_zero, List.set_cons_succ]
  · have := hfr k hk
    rw [ho _ hlt, sets_other _ _ (by omega), sets_other _ _ (by omega)]
  · have h1 := (hbel.trans (sets_below w.heap.size w.heap.size (Nat.le_refl _) (fsets f p) wz)).trans (sets_below (w.heap.size + 1) w.heap.size (by omega) [(0, .int .i64 c), (1, .int .i64 x)] _)
    exact ((h1.alloc (by rw [sets_size, sets_size]; omega) o1).alloc (by rw [size_al, sets_size, sets_size]; omega) o2).drew

set_option maxRecDepth 100000 in
set_option maxHeartbeats 1000000 in
theorem read_short (s : ByteArray) (most : Int) (w : World) (h : s.size < 9) :
    Calls Tryd.prog 35 #[.string s, .int .i64 most] w fun e w' => RPost w (readS s most) e w' := by
  have hq : Hid (readS s most = ((Fr.zero, []), 0, 0, 0)) := by show _ = _; unfold readS; rw [if_pos h]
  have hi : (s.size : Int) < 9 := by omega
  go_enter Tryd.func35, Tryd.ntmps35
  go_wp2_with fail
  refine bodyPost_ret (results_three (p := 4) (ty := 28) (r := 5) (q := 6) (tz := 30) rfl _ _ w.heap.size (w.heap.size + 1) 28 30 #[.int .i64 0, .int .i64 0, .int .i64 0, .string ⟨#[]⟩, .int .i64 0, .int .i64 0, .bool false, .int .i64 0, .int .i64 0, .int .i64 0, .slice none 0 0] #[.int .i64 0, .int .i64 0] (0, 0) (0, 0) _ _ rfl ?a1 Tryd.underlying28 rfl (by kernel_rfl) rfl ?a2 Tryd.underlying30 rfl (by kernel_rfl)) rfl ?a3
  case a1 => (simp only [heap_al, heap_dr, size_al, size_dr]; repeat (first | rw [if_pos trivial] | rw [if_neg (by omega)] | rw [if_pos (by omega)]))
  case a2 => (simp only [heap_al, heap_dr, size_al, size_dr]; repeat (first | rw [if_pos trivial] | rw [if_neg (by omega)] | rw [if_pos (by omega)]))
  case a3 => exact rpost_bad hq.out _ (by (repeat (first | exact Below.refl _ _ | refine Below.drew ?_ | refine Below.alloc ?_ (by first | exact Nat.le_refl _ | (simp only [size_al, size_dr]; omega)) _)))

set_option maxRecDepth 100000 in
set_option maxHeartbeats 1000000 in
theorem read_long (s : ByteArray) (most : Int) (w : World) (h : ¬ s.size < 9) (N : Nat) (hN : N = numS (s.extract 0 3)) (hm : min (max most 16384) 65536 < (N : Int)) :
    Calls Tryd.prog 35 #[.string s, .int .i64 most] w fun e w' => RPost w (readS s most) e w' := by
  have hq : Hid (readS s most = ((Fr.zero, []), 0, 6, 0)) := by show _ = _; unfold readS; rw [if_neg h, ← hN, if_pos hm]
  have hi : ¬ (s.size : Int) < 9 := by omega
  have hi3 : (3 : Int) ≤ (s.size : Int) := by omega
  have hs3 : (s.extract 0 3).size ≤ 4 := by rw [ByteArray.size_extract]; omega
  have HN : Hid (N = numS (s.extract 0 3)) := hN
  clear hN h
  go_enter Tryd.func35, Tryd.ntmps35
  go_wp2_with (go_at_call 40; refine (number_any (s.extract 0 3) _ hs3).mono ?_; rintro e w' ⟨rfl, rfl⟩; rw [← HN.out])
  refine bodyPost_ret (results_three (p := 4) (ty := 28) (r := 5) (q := 6) (tz := 30) rfl _ _ w.heap.size (w.heap.size + 1) 28 30 #[.int .i64 0, .int .i64 0, .int .i64 0, .string ⟨#[]⟩, .int .i64 0, .int .i64 0, .bool false, .int .i64 0, .int .i64 0, .int .i64 0, .slice none 0 0] #[.int .i64 6, .int .i64 0] (0, 0) (0, 0) _ _ rfl ?a1 Tryd.underlying28 rfl (by kernel_rfl) rfl ?a2 Tryd.underlying30 rfl (by kernel_rfl)) rfl ?a3
  case a1 => (simp only [heap_al, heap_dr, size_al, size_dr]; repeat (first | rw [if_pos trivial] | rw [if_neg (by omega)] | rw [if_pos (by omega)]))
  case a2 => (simp only [heap_al, heap_dr, size_al, size_dr]; repeat (first | rw [if_pos trivial] | rw [if_neg (by omega)] | rw [if_pos (by omega)]))
  case a3 => exact rpost_bad hq.out _ (by (repeat (first | exact Below.refl _ _ | refine Below.drew ?_ | refine Below.alloc ?_ (by first | exact Nat.le_refl _ | (simp only [size_al, size_dr]; omega)) _)))

set_option maxRecDepth 100000 in
set_option maxHeartbeats 1000000 in
theorem read_wanted (s : ByteArray) (most : Int) (w : World) (h : ¬ s.size < 9) (N : Nat) (hN : N = numS (s.extract 0 3)) (hm : ¬ min (max most 16384) 65536 < (N : Int)) (hw : s.size < 9 + N) (hN24 : N < 16777216) :
    Calls Tryd.prog 35 #[.string s, .int .i64 most] w fun e w' => RPost w (readS s most) e w' := by
  have hq : Hid (readS s most = ((Fr.zero, []), 0, 0, 0)) := by show _ = _; unfold readS; rw [if_neg h, ← hN, if_neg hm, if_pos hw]
  have hi : ¬ (s.size : Int) < 9 := by omega
  have hi3 : (3 : Int) ≤ (s.size : Int) := by omega
  have hs3 : (s.extract 0 3).size ≤ 4 := by rw [ByteArray.size_extract]; omega
  have hw' : (s.size : Int) < 9 + (N : Int) := by omega
  have HN : Hid (N = numS (s.extract 0 3)) := hN
  clear hN h
  go_enter Tryd.func35, Tryd.ntmps35
  go_wp2_with (go_at_call 40; refine (number_any (s.extract 0 3) _ hs3).mono ?_; rintro e w' ⟨rfl, rfl⟩; rw [← HN.out])
  refine bodyPost_ret (results_three (p := 4) (ty := 28) (r := 5) (q := 6) (tz := 30) rfl _ _ w.heap.size (w.heap.size + 1) 28 30 #[.int .i64 0, .int .i64 0, .int .i64 0, .string ⟨#[]⟩, .int .i64 0, .int .i64 0, .bool false, .int .i64 0, .int .i64 0, .int .i64 0, .slice none 0 0] #[.int .i64 0, .int .i64 0] (0, 0) (0, 0) _ _ rfl ?a1 Tryd.underlying28 rfl (by kernel_rfl) rfl ?a2 Tryd.underlying30 rfl (by kernel_rfl)) rfl ?a3
  case a1 => (simp only [heap_al, heap_dr, size_al, size_dr]; repeat (first | rw [if_pos trivial] | rw [if_neg (by omega)] | rw [if_pos (by omega)]))
  case a2 => (simp only [heap_al, heap_dr, size_al, size_dr]; repeat (first | rw [if_pos trivial] | rw [if_neg (by omega)] | rw [if_pos (by omega)]))
  case a3 => exact rpost_bad hq.out _ (by (repeat (first | exact Below.refl _ _ | refine Below.drew ?_ | refine Below.alloc ?_ (by first | exact Nat.le_refl _ | (simp only [size_al, size_dr]; omega)) _)))

set_option maxRecDepth 100000 in
set_option maxHeartbeats 2000000 in
theorem read_go (s : ByteArray) (most : Int) (w : World) (h : ¬ s.size < 9) (N M : Nat) (hN : N = numS (s.extract 0 3)) (hM : M = 9 + N) (hm : ¬ min (max most 16384) 65536 < (N : Int)) (hw : ¬ s.size < M) (hN24 : N ≤ 65536) (hw1 : 1 ≤ w.heap.size) (hK : Kinds w) :
    Calls Tryd.prog 35 #[.string s, .int .i64 most] w fun e w' => RPost w (readS s most) e w' := by
  obtain ⟨res, hres⟩ : ∃ res, readS s most = res := ⟨_, rfl⟩
  rw [hres]
  unfold readS at hres
  rw [if_neg h, ← hN, if_neg hm, ← hM, if_neg hw] at hres
  obtain ⟨B, hB⟩ : ∃ B, B = s.extract 0 M := ⟨_, rfl⟩
  rw [← hB] at hres
  have hBs : B.size = M := by rw [hB, ByteArray.size_extract]; omega
  have HRES : Hid _ := hres
  have hi : ¬ (s.size : Int) < 9 := by omega
  have hi3 : (3 : Int) ≤ (s.size : Int) := by omega
  have hs3 : (s.extract 0 3).size ≤ 4 := by rw [ByteArray.size_extract]; omega
  have hw' : ¬ (s.size : Int) < (M : Int) := by omega
  have hMi : (9 : Int) + (N : Int) = (M : Int) := by omega
  have HN : Hid (N = numS (s.extract 0 3)) := hN
  have HB : Hid (B = s.extract 0 M) := hB
  have hparse : Hid (∀ W : World, Kinds W → 1 ≤ W.heap.size → Calls Tryd.prog 31 #[.string (s.extract 0 M)] W fun e w' => PPost W (parseS B) e w') := by
    intro W hKW hW
    rw [← hB]
    exact parse_any B W (by omega) hW hKW (by omega) (fun _ => by omega)
  have hKW : Hid (∀ W : World, Below w.heap.size w W → Kinds W) := fun W hb => hK.of_eq (hb.block 0 (by omega))
  clear hN h hres hB hK hM
  obtain ⟨r, hr⟩ : ∃ r, parseS B = r := ⟨_, rfl⟩
  rw [hr] at HRES hparse
  obtain ⟨⟨f, ps⟩, c, x⟩ := r
  replace HRES : Hid ((if c ≠ 0 ∧ x = 0 then ((Fr.zero, []), 0, (c, x)) else ((f, ps), ((M : Nat) : Int), (c, x))) = res) := HRES
  clear hr
  have hparse2 : Hid (∀ W : World, Kinds W → 1 ≤ W.heap.size → w.heap.size + 1 + 1 ≤ W.heap.size → Below w.heap.size w W → W.heap[w.heap.size]? = some (.cells #[.int .i64 0, .int .i64 0, .int .i64 0, .string ⟨#[]⟩, .int .i64 0, .int .i64 0, .bool false, .int .i64 0, .int .i64 0, .int .i64 0, .slice none 0 0] 28 (0, 0)) → W.heap[w.heap.size + 1]? = some (.cells #[.int .i64 0, .int .i64 0] 30 (0, 0)) → Calls Tryd.prog 31 #[.string (s.extract 0 M)] W fun e w' => ∃ pb pl pc, e = .returned (.tuple #[.agg #[.int .i64 f.ty, .int .i64 f.fl, .int .i64 f.st, .string f.data, .int .i64 f.pad, .int .i64 f.dep, .bool f.excl, .int .i64 f.wt, .int .i64 f.code, .int .i64 f.last, .slice pb pl pc], .agg #[.int .i64 c, .int .i64 x]]) ∧
      PRow w' (.slice pb pl pc) ps ∧ (∀ k, (Value.slice pb pl pc).ownBlock = some k → w.heap.size + 1 + 1 ≤ k) ∧ Below w.heap.size w w' ∧ w'.heap[w.heap.size]? = some (.cells #[.int .i64 0, .int .i64 0, .int .i64 0, .string ⟨#[]⟩, .int .i64 0, .int .i64 0, .bool false, .int .i64 0, .int .i64 0, .int .i64 0, .slice none 0 0] 28 (0, 0)) ∧ w'.heap[w.heap.size + 1]? = some (.cells #[.int .i64 0, .int .i64 0] 30 (0, 0))) := by
    intro W h1 h2 h3 h4 h5 h6
    refine (hparse.out W h1 h2).mono ?_
    rintro e w' ⟨p, rfl, q1, q2, q3⟩
    obtain ⟨pb, pc, rfl⟩ := q1.slice
    exact ⟨pb, _, pc, rfl, q1, fun k hk => Nat.le_trans h3 (q2 k hk), h4.trans (q3.mono h4.size), (q3.block _ (by omega)).trans h5, (q3.block _ (by omega)).trans h6⟩
  clear hparse
  by_cases hbad : c ≠ 0 ∧ x = 0
  · obtain ⟨hc0, hx0⟩ := hbad
    have hcb : (c == 0) = false := by simpa using hc0
    subst hx0
    replace HRES : Hid (res = ((Fr.zero, []), 0, c, 0)) := by show _ = _; rw [← HRES.out, if_pos ⟨hc0, rfl⟩]
    go_enter Tryd.func35, Tryd.ntmps35
    go_wp2_with (first | (go_at_call 40; refine (number_any (s.extract 0 3) _ hs3).mono ?_; rintro e w' ⟨rfl, rfl⟩; rw [← HN.out]) | (go_at_call 31; refine (hparse2.out _ (hKW.out _ (by (repeat (first | exact Below.refl _ _ | refine Below.drew ?_ | refine Below.alloc ?_ (by first | exact Nat.le_refl _ | (simp only [size_al, size_dr]; omega)) _)))) (by simp only [size_al, size_dr]; omega) (by simp only [size_al, size_dr]; omega) (by (repeat (first | exact Below.refl _ _ | refine Below.drew ?_ | refine Below.alloc ?_ (by first | exact Nat.le_refl _ | (simp only [size_al, size_dr]; omega)) _))) (by (simp only [heap_al, heap_dr, size_al, size_dr]; repeat (first | rw [if_pos trivial] | rw [if_neg (by omega)] | rw [if_pos (by omega)]))) (by (simp only [heap_al, heap_dr, size_al, size_dr]; repeat (first | rw [if_pos trivial] | rw [if_neg (by omega)] | rw [if_pos (by omega)])))).mono ?_; rintro e wz ⟨pb, pl, pc, rfl, hz1, hz2, hz3, hz4, hz5⟩; have hz4' : FB wz w.heap.size Fr.zero (.slice none 0 0) := hz4; obtain ⟨z0, z1, z2, z3, z4, z5, z6, z7, z8, z9, z10⟩ := hz4'.cells; obtain ⟨y0, y1, y2, y3, y4, y5, y6, y7, y8, y9, y10⟩ := hz4'.frozens; have q0 := cell_of_row _ _ 0 _ _ _ hz5; have q1 := cell_of_row _ _ 1 _ _ _ hz5; have q2 : wz.frozen? ⟨w.heap.size + 1, 0, none⟩ = false := frozen_row hz5 0; have q3 : wz.frozen? ⟨w.heap.size + 1, 1, none⟩ = false := frozen_row hz5 1; have l0 : w.heap.size < wz.heap.size := (Array.getElem?_eq_some_iff.1 hz4).1; have l1 : w.heap.size + 1 < wz.heap.size := (Array.getElem?_eq_some_iff.1 hz5).1; replace hz4 : Hid _ := hz4; replace hz5 : Hid _ := hz5; clear hz4'; simp only [Fr.zero, List.getElem?_toArray, List.getElem?_cons_succ, List.getElem?_cons_zero] at z0 z1 z2 z3 z4 z5 z6 z7 z8 z9 z10 q0 q1))
    go_region
    all_goals
      go_wp2_with fail
      have hfin := finR w wz Fr.zero (.slice none 0 0) (.slice none 0 0) [] c 0 (.cells #[.int .i64 f.ty, .int .i64 f.fl, .int .i64 f.st, .string f.data, .int .i64 f.pad, .int .i64 f.dep, .bool f.excl, .int .i64 f.wt, .int .i64 f.code, .int .i64 f.last, .slice pb pl pc] 28) (.cells #[.int .i64 c, .int .i64 0] 30) hz4.out hz5.out (PRow.nil _) (fun k hk => by simp [Value.ownBlock] at hk) hz3
      simp only [sets, fsets, Fr.zero, List.foldl_cons, List.foldl_nil] at hfin
      obtain ⟨x1, x2, x3, x4⟩ := hfin
      refine bodyPost_ret (results_three (p := 4) (ty := 28) (r := 5) (q := 6) (tz := 30) rfl _ _ w.heap.size (w.heap.size + 1) 28 30 _ _ (0, 0) (0, 0) _ _ rfl x1 Tryd.underlying28 rfl (by kernel_rfl) rfl x2 Tryd.underlying30 rfl (by kernel_rfl)) rfl ?_
      exact rpost_bad HRES.out _ x4
  · replace HRES : Hid (res = ((f, ps), ((M : Nat) : Int), (c, x))) := by show _ = _; rw [← HRES.out, if_neg hbad]
    by_cases hc0 : c = 0
    · subst hc0
      go_enter Tryd.func35, Tryd.ntmps35
      go_wp2_with (first | (go_at_call 40; refine (number_any (s.extract 0 3) _ hs3).mono ?_; rintro e w' ⟨rfl, rfl⟩; rw [← HN.out]) | (go_at_call 31; refine (hparse2.out _ (hKW.out _ (by (repeat (first | exact Below.refl _ _ | refine Below.drew ?_ | refine Below.alloc ?_ (by first | exact Nat.le_refl _ | (simp only [size_al, size_dr]; omega)) _)))) (by simp only [size_al, size_dr]; omega) (by simp only [size_al, size_dr]; omega) (by (repeat (first | exact Below.refl _ _ | refine Below.drew ?_ | refine Below.alloc ?_ (by first | exact Nat.le_refl _ | (simp only [size_al, size_dr]; omega)) _))) (by (simp only [heap_al, heap_dr, size_al, size_dr]; repeat (first | rw [if_pos trivial] | rw [if_neg (by omega)] | rw [if_pos (by omega)]))) (by (simp only [heap_al, heap_dr, size_al, size_dr]; repeat (first | rw [if_pos trivial] | rw [if_neg (by omega)] | rw [if_pos (by omega)])))).mono ?_; rintro e wz ⟨pb, pl, pc, rfl, hz1, hz2, hz3, hz4, hz5⟩; have hz4' : FB wz w.heap.size Fr.zero (.slice none 0 0) := hz4; obtain ⟨z0, z1, z2, z3, z4, z5, z6, z7, z8, z9, z10⟩ := hz4'.cells; obtain ⟨y0, y1, y2, y3, y4, y5, y6, y7, y8, y9, y10⟩ := hz4'.frozens; have q0 := cell_of_row _ _ 0 _ _ _ hz5; have q1 := cell_of_row _ _ 1 _ _ _ hz5; have q2 : wz.frozen? ⟨w.heap.size + 1, 0, none⟩ = false := frozen_row hz5 0; have q3 : wz.frozen? ⟨w.heap.size + 1, 1, none⟩ = false := frozen_row hz5 1; have l0 : w.heap.size < wz.heap.size := (Array.getElem?_eq_some_iff.1 hz4).1; have l1 : w.heap.size + 1 < wz.heap.size := (Array.getElem?_eq_some_iff.1 hz5).1; replace hz4 : Hid _ := hz4; replace hz5 : Hid _ := hz5; clear hz4'; simp only [Fr.zero, List.getElem?_toArray, List.getElem?_cons_succ, List.getElem?_cons_zero] at z0 z1 z2 z3 z4 z5 z6 z7 z8 z9 z10 q0 q1))
      go_region
      all_goals
        go_wp2_with fail
        have hfin := finR w wz f (.slice pb pl pc) (.slice pb pl pc) ps 0 x (.cells #[.int .i64 f.ty, .int .i64 f.fl, .int .i64 f.st, .string f.data, .int .i64 f.pad, .int .i64 f.dep, .bool f.excl, .int .i64 f.wt, .int .i64 f.code, .int .i64 f.last, .slice pb pl pc] 28) (.cells #[.int .i64 0, .int .i64 x] 30) hz4.out hz5.out hz1 hz2 hz3
        simp only [sets, fsets, Fr.zero, List.foldl_cons, List.foldl_nil] at hfin
        obtain ⟨x1, x2, x3, x4⟩ := hfin
        refine bodyPost_ret (results_three (p := 4) (ty := 28) (r := 5) (q := 6) (tz := 30) rfl _ _ w.heap.size (w.heap.size + 1) 28 30 _ _ (0, 0) (0, 0) _ _ rfl x1 Tryd.underlying28 rfl (by kernel_rfl) rfl x2 Tryd.underlying30 rfl (by kernel_rfl)) rfl ?_
        rw [HRES.out]
        exact ⟨_, rfl, x3, fun k hk => by have := hz2 k hk; omega, x4⟩
    · have hcb : (c == 0) = false := by simpa using hc0
      have hxb : (x == 0) = false := by simpa using (fun e => hbad ⟨hc0, e⟩ : ¬ x = 0)
      clear hbad
      go_enter Tryd.func35, Tryd.ntmps35
      go_wp2_with (first | (go_at_call 40; refine (number_any (s.extract 0 3) _ hs3).mono ?_; rintro e w' ⟨rfl, rfl⟩; rw [← HN.out]) | (go_at_call 31; refine (hparse2.out _ (hKW.out _ (by (repeat (first | exact Below.refl _ _ | refine Below.drew ?_ | refine Below.alloc ?_ (by first | exact Nat.le_refl _ | (simp only [size_al, size_dr]; omega)) _)))) (by simp only [size_al, size_dr]; omega) (by simp only [size_al, size_dr]; omega) (by (repeat (first | exact Below.refl _ _ | refine Below.drew ?_ | refine Below.alloc ?_ (by first | exact Nat.le_refl _ | (simp only [size_al, size_dr]; omega)) _))) (by (simp only [heap_al, heap_dr, size_al, size_dr]; repeat (first | rw [if_pos trivial] | rw [if_neg (by omega)] | rw [if_pos (by omega)]))) (by (simp only [heap_al, heap_dr, size_al, size_dr]; repeat (first | rw [if_pos trivial] | rw [if_neg (by omega)] | rw [if_pos (by omega)])))).mono ?_; rintro e wz ⟨pb, pl, pc, rfl, hz1, hz2, hz3, hz4, hz5⟩; have hz4' : FB wz w.heap.size Fr.zero (.slice none 0 0) := hz4; obtain ⟨z0, z1, z2, z3, z4, z5, z6, z7, z8, z9, z10⟩ := hz4'.cells; obtain ⟨y0, y1, y2, y3, y4, y5, y6, y7, y8, y9, y10⟩ := hz4'.frozens; have q0 := cell_of_row _ _ 0 _ _ _ hz5; have q1 := cell_of_row _ _ 1 _ _ _ hz5; have q2 : wz.frozen? ⟨w.heap.size + 1, 0, none⟩ = false := frozen_row hz5 0; have q3 : wz.frozen? ⟨w.heap.size + 1, 1, none⟩ = false := frozen_row hz5 1; have l0 : w.heap.size < wz.heap.size := (Array.getElem?_eq_some_iff.1 hz4).1; have l1 : w.heap.size + 1 < wz.heap.size := (Array.getElem?_eq_some_iff.1 hz5).1; replace hz4 : Hid _ := hz4; replace hz5 : Hid _ := hz5; clear hz4'; simp only [Fr.zero, List.getElem?_toArray, List.getElem?_cons_succ, List.getElem?_cons_zero] at z0 z1 z2 z3 z4 z5 z6 z7 z8 z9 z10 q0 q1))
      go_region
      all_goals
        go_wp2_with fail
        have hfin := finR w wz f (.slice pb pl pc) (.slice pb pl pc) ps c x (.cells #[.int .i64 f.ty, .int .i64 f.fl, .int .i64 f.st, .string f.data, .int .i64 f.pad, .int .i64 f.dep, .bool f.excl, .int .i64 f.wt, .int .i64 f.code, .int .i64 f.last, .slice pb pl pc] 28) (.cells #[.int .i64 c, .int .i64 x] 30) hz4.out hz5.out hz1 hz2 hz3
        simp only [sets, fsets, Fr.zero, List.foldl_cons, List.foldl_nil] at hfin
        obtain ⟨x1, x2, x3, x4⟩ := hfin
        refine bodyPost_ret (results_three (p := 4) (ty := 28) (r := 5) (q := 6) (tz := 30) rfl _ _ w.heap.size (w.heap.size + 1) 28 30 _ _ (0, 0) (0, 0) _ _ rfl x1 Tryd.underlying28 rfl (by kernel_rfl) rfl x2 Tryd.underlying30 rfl (by kernel_rfl)) rfl ?_
        rw [HRES.out]
        exact ⟨_, rfl, x3, fun k hk => by have := hz2 k hk; omega, x4⟩

theorem read_any (s : ByteArray) (most : Int) (w : World) (hw1 : 1 ≤ w.heap.size) (hK : Kinds w) :
    Calls Tryd.prog 35 #[.string s, .int .i64 most] w fun e w' => RPost w (readS s most) e w' := by
  by_cases h : s.size < 9
  · exact read_short s most w h
  · have h3 : numS (s.extract 0 3) < 16777216 := by
      have h1 := numL_lt (s.extract 0 3).data.toList
      have h2 : (s.extract 0 3).data.toList.length ≤ 3 := by
        have : (s.extract 0 3).data.toList.length = (s.extract 0 3).size := by simp
        rw [this, ByteArray.size_extract]; omega
      have h4 : 256 ^ (s.extract 0 3).data.toList.length ≤ 256 ^ 3 := Nat.pow_le_pow_right (by decide) h2
      unfold numS
      omega
    by_cases hm : min (max most 16384) 65536 < (numS (s.extract 0 3) : Int)
    · exact read_long s most w h _ rfl hm
    · by_cases hw : s.size < 9 + numS (s.extract 0 3)
      · exact read_wanted s most w h _ rfl hm hw h3
      · exact read_go s most w h _ _ rfl rfl hm hw (by omega) hw1 hK
end Go.Proofs.YtmhbaaemihljjaaDoor
