/- Write, of every frame. -/
import Derived.Test.YtmhbaaemihljjaaDoorCa
import Derived.Test.YtmhbaaemihljjaaDoorR2
namespace Go.Proofs.YtmhbaaemihljjaaDoor
open Go.RowKit
set_option linter.unusedVariables false
set_option linter.unusedSimpArgs false

/-- what Write answers, out of what parse and same say -/
def wrS (b : ByteArray) (c : Int) (r : Bool) : Value := if c ≠ 0 ∨ r = false then .tuple #[.string ⟨#[]⟩, .int .i64 60] else if 65545 < b.size then .tuple #[.string ⟨#[]⟩, .int .i64 3] else .tuple #[.string b, .int .i64 0]

set_option maxRecDepth 100000 in
set_option maxHeartbeats 2000000 in
theorem write_gen (f g : Fr) (qs : List (Int × Int)) (pb : Option Addr) (pl pc : Nat) (w : World) (b : ByteArray) (c x : Int) (r : Bool) (hx : c = 0 → x = 0)
    (hasm : ∀ W : World, Below w.heap.size w W → Calls Tryd.prog 30 #[.agg (fv f (.slice pb pl pc))] W fun e w' => e = .returned (.string b) ∧ Below W.heap.size W w')
    (hparse : ∀ W : World, Below w.heap.size w W → Calls Tryd.prog 31 #[.string b] W fun e w' => PPost W ((g, qs), c, x) e w')
    (hsame : ∀ (W : World) (qb : Option Addr) (ql qc : Nat), Below w.heap.size w W → PRow W (.slice qb ql qc) qs → Calls Tryd.prog 32 #[.agg (fv g (.slice qb ql qc)), .agg (fv f (.slice pb pl pc))] W fun e w' => e = .returned (.bool r) ∧ Below W.heap.size W w') :
    Calls Tryd.prog 18 #[.agg (fv f (.slice pb pl pc))] w fun e w' => e = .returned (wrS b c r) ∧ Below w.heap.size w w' := by
  have hasm2 : Hid (∀ W : World, Below w.heap.size w W → FB W w.heap.size f (.slice pb pl pc) → Calls Tryd.prog 30 #[.agg (fv f (.slice pb pl pc))] W fun e w' => e = .returned (.string b) ∧ Below w.heap.size w w' ∧ FB w' w.heap.size f (.slice pb pl pc)) := by
    intro W h1 h2
    refine (hasm W h1).mono ?_
    rintro e w' ⟨rfl, h3⟩
    exact ⟨rfl, h1.trans (h3.mono h1.size), h2.below h3⟩
  have hparse2 : Hid (∀ W : World, Below w.heap.size w W → FB W w.heap.size f (.slice pb pl pc) → Calls Tryd.prog 31 #[.string b] W fun e w' => ∃ qb ql qc, e = .returned (.tuple #[.agg (fv g (.slice qb ql qc)), .agg #[.int .i64 c, .int .i64 x]]) ∧ PRow w' (.slice qb ql qc) qs ∧ Below w.heap.size w w' ∧ FB w' w.heap.size f (.slice pb pl pc)) := by
    intro W h1 h2
    refine (hparse W h1).mono ?_
    rintro e w' ⟨p, rfl, q1, q2, q3⟩
    obtain ⟨qb, qc, rfl⟩ := q1.slice
    exact ⟨qb, _, qc, rfl, q1, h1.trans (q3.mono h1.size), h2.below q3⟩
  have HS : Hid _ := hsame
  clear hasm hparse hsame
  obtain ⟨res, hres⟩ : ∃ res, wrS b c r = res := ⟨_, rfl⟩
  rw [hres]
  have HR : Hid (wrS b c r = res) := hres
  clear hres
  by_cases hc : c = 0
  · have hx0 : x = 0 := hx hc
    subst hc
    subst hx0
    clear hx
    unfold fv at *
    go_enter Tryd.func18, Tryd.ntmps18
    go_wp2_with (first
      | (go_at_call 30; refine (hasm2.out _ ((Below.refl _ w).alloc (Nat.le_refl _) _) (heap_alloc_new w _)).mono ?_; rintro e wy ⟨rfl, hy1, hy2⟩)
      | (go_at_call 31; refine (hparse2.out _ hy1 hy2).mono ?_; rintro e wz ⟨qb, ql, qc, rfl, hz1, hz2, hz3⟩; obtain ⟨c0, c1, c2, c3, c4, c5, c6, c7, c8, c9, c10⟩ := hz3.cells; have hlt := hz3.lt))
    have hbw : Below w.heap.size w ((wz.alloc (.cells (fv g (.slice qb ql qc)) 28)).alloc (.cells #[.int .i64 0, .int .i64 0] 30)) := (hz2.alloc hz2.size _).alloc (by rw [size_al]; have := hz2.size; omega) _
    have hrow : PRow ((wz.alloc (.cells (fv g (.slice qb ql qc)) 28)).alloc (.cells #[.int .i64 0, .int .i64 0] 30)) (.slice qb ql qc) qs := hz1.below fun k _ hk => by rw [heap_al, if_neg (by rw [size_al]; omega), heap_al, if_neg (by omega)]
    refine (HS.out _ qb ql qc hbw hrow).mono ?_
    rintro e wq ⟨rfl, hq⟩
    have hfin := hbw.trans (hq.mono hbw.size)
    clear hrow hbw hq
    cases r with
    | false =>
      obtain rfl : res = .tuple #[.string ⟨#[]⟩, .int .i64 60] := by rw [← HR.out]; unfold wrS; rw [if_pos (.inr rfl)]
      go_wp2_with fail
      go_ret2
      exact ⟨rfl, hfin⟩
    | true =>
      by_cases hlen : 65545 < b.size
      · obtain rfl : res = .tuple #[.string ⟨#[]⟩, .int .i64 3] := by rw [← HR.out]; unfold wrS; rw [if_neg (by simp), if_pos hlen]
        have hb' : (65545 : Int) < (b.size : Int) := by omega
        go_wp2_with fail
        go_ret2
        exact ⟨rfl, hfin⟩
      · obtain rfl : res = .tuple #[.string b, .int .i64 0] := by rw [← HR.out]; unfold wrS; rw [if_neg (by simp), if_neg hlen]
        have hb' : ¬ (65545 : Int) < (b.size : Int) := by omega
        go_wp2_with fail
        go_ret2
        exact ⟨rfl, hfin⟩
  · obtain rfl : res = .tuple #[.string ⟨#[]⟩, .int .i64 60] := by rw [← HR.out]; unfold wrS; rw [if_pos (.inl hc)]
    have hcb : (c == 0) = false := by simpa using hc
    clear hx
    unfold fv at *
    go_enter Tryd.func18, Tryd.ntmps18
    go_wp2_with (first
      | (go_at_call 30; refine (hasm2.out _ ((Below.refl _ w).alloc (Nat.le_refl _) _) (heap_alloc_new w _)).mono ?_; rintro e wy ⟨rfl, hy1, hy2⟩)
      | (go_at_call 31; refine (hparse2.out _ hy1 hy2).mono ?_; rintro e wz ⟨qb, ql, qc, rfl, hz1, hz2, hz3⟩; obtain ⟨c0, c1, c2, c3, c4, c5, c6, c7, c8, c9, c10⟩ := hz3.cells; have hlt := hz3.lt))
    have hbw : Below w.heap.size w ((wz.alloc (.cells (fv g (.slice qb ql qc)) 28)).alloc (.cells #[.int .i64 c, .int .i64 x] 30)) := (hz2.alloc hz2.size _).alloc (by rw [size_al]; have := hz2.size; omega) _
    go_ret2
    exact ⟨rfl, hbw⟩

theorem parse_fault (b : ByteArray) : (parseS b).2.1 = 0 → (parseS b).2.2 = 0 := by
  unfold parseS parseB
  by_cases c1 : stS b < kfrom (kiS b) ∨ kto (kiS b) < stS b
  · rw [if_pos c1]
    intro h
    exact absurd h (by decide)
  rw [if_neg c1]
  by_cases c2 : ftS (kd (tyS b) (flS b)).1 (kd (tyS b) (flS b)).2.1 (((b.extract 9 b.size).size : Int) - ((if pdS b then 1 else 0 : Nat) : Int)) = false
  · rw [if_pos c2]
    intro h
    exact absurd (show (6 : Int) = 0 from h) (by decide)
  rw [if_neg c2]
  by_cases c3 : ftS (kd (tyS b) (flS b)).1 (kd (tyS b) (flS b)).2.1 (((b.extract 9 b.size).size : Int) - ((if pdS b then byteAt (b.extract 9 b.size) 0 else 0 : Nat) : Int) - ((if pdS b then 1 else 0 : Nat) : Int)) = false
  · rw [if_pos c3]
    intro h
    exact absurd h (by decide)
  rw [if_neg c3]
  intro _
  rfl

/-- what Write answers -/
def writeV (f : Fr) (ps : List (Int × Int)) (v : Value) : Prop :=
  (Right f ps → (asmB f ps).size ≤ 65545 → v = .tuple #[.string (asmB f ps), .int .i64 0]) ∧ (Right f ps → 65545 < (asmB f ps).size → v = .tuple #[.string ⟨#[]⟩, .int .i64 3]) ∧ (¬ Right f ps → v = .tuple #[.string ⟨#[]⟩, .int .i64 60])

theorem write_any (f : Fr) (ps : List (Int × Int)) (p : Value) (w : World) (hw : 1 ≤ w.heap.size) (hK : Kinds w) (hp : PRow w p ps) (hl : (asmB f ps).size * 3 + 2000 ≤ 140737488355328) :
    Calls Tryd.prog 18 #[.agg (fv f p)] w fun e w' => ∃ v, e = .returned v ∧ writeV f ps v ∧ Below w.heap.size w w' := by
  obtain ⟨pb, pc, rfl⟩ := hp.slice
  obtain ⟨⟨⟨g, qs⟩, c, x⟩, hr⟩ : ∃ q, parseS (asmB f ps) = q := ⟨_, rfl⟩
  have h9 : 9 ≤ (asmB f ps).size := by rw [asmB_size]; omega
  have hpl : (payB (kd f.ty f.fl).2.2.1 f ps).length + 400 ≤ 140737488355328 := by
    rw [asmB_size] at hl
    have : (payB (kd f.ty f.fl).2.2.1 f ps).length ≤ (wholeB f ps).length := by
      unfold wholeB
      split
      · simp; omega
      · exact Nat.le_refl _
    omega
  have hx : c = 0 → x = 0 := by have := parse_fault (asmB f ps); rw [hr] at this; exact this
  have hasm : ∀ W : World, Below w.heap.size w W → Calls Tryd.prog 30 #[.agg (fv f (.slice pb ps.length pc))] W fun e w' => e = .returned (.string (asmB f ps)) ∧ Below W.heap.size W w' := fun W hW =>
    asm_any f ps _ W (hp.below fun k _ hk => hW.block k hk) hpl
  have hparse : ∀ W : World, Below w.heap.size w W → Calls Tryd.prog 31 #[.string (asmB f ps)] W fun e w' => PPost W ((g, qs), c, x) e w' := fun W hW => by
    rw [← hr]
    exact parse_any (asmB f ps) W h9 (Nat.le_trans hw hW.size) (hK.of_eq (hW.block 0 (by omega))) (by omega) (fun _ => by omega)
  by_cases hs : g = f ∧ qs = ps
  · obtain ⟨rfl, rfl⟩ := hs
    refine (write_gen g g qs pb _ pc w (asmB g qs) c x true hx hasm hparse fun W qb ql qc hW hq => ?_).mono ?_
    · refine (same_any g g qs qs _ _ W hq (hp.below fun k _ hk => hW.block k hk)).mono ?_
      rintro e w' ⟨r, rfl, h1, h2⟩
      exact ⟨by rw [h1.2 ⟨rfl, rfl⟩], h2⟩
    · rintro e w' ⟨rfl, hb⟩
      refine ⟨_, rfl, ?_, hb⟩
      by_cases hc : c = 0
      · have hx0 := hx hc
        subst hc
        subst hx0
        have hR := (parse_right _ _ _ h9 hr).1
        refine ⟨fun _ hsz => ?_, fun _ hsz => ?_, fun hn => absurd hR hn⟩
        · unfold wrS; rw [if_neg (by simp), if_neg (by omega)]
        · unfold wrS; rw [if_neg (by simp), if_pos (by omega)]
      · have hno : ¬ Right g qs := fun hR => by
          have := parse_asm g qs hR
          rw [hr] at this
          simp at this
          exact hc this.1
        refine ⟨fun h => absurd h hno, fun h => absurd h hno, fun _ => ?_⟩
        unfold wrS; rw [if_pos (.inl hc)]
  · have hno : ¬ Right f ps := fun hR => by
      have := parse_asm f ps hR
      rw [hr] at this
      simp at this
      exact hs this.1
    refine (write_gen f g qs pb _ pc w (asmB f ps) c x false hx hasm hparse fun W qb ql qc hW hq => ?_).mono ?_
    · refine (same_any g f qs ps _ _ W hq (hp.below fun k _ hk => hW.block k hk)).mono ?_
      rintro e w' ⟨r, rfl, h1, h2⟩
      have hrf : r = false := by
        cases r
        · rfl
        · exact absurd (h1.1 rfl) hs
      exact ⟨by rw [hrf], h2⟩
    · rintro e w' ⟨rfl, hb⟩
      refine ⟨_, rfl, ⟨fun h => absurd h hno, fun h => absurd h hno, fun _ => ?_⟩, hb⟩
      unfold wrS; rw [if_pos (.inr rfl)]
end Go.Proofs.YtmhbaaemihljjaaDoor
