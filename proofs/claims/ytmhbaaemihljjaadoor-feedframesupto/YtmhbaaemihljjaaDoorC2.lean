/- Write. -/
import Derived.Test.YtmhbaaemihljjaaDoorC1
namespace Go.Proofs.YtmhbaaemihljjaaDoor
open Go.RowKit
set_option linter.unusedVariables false
set_option linter.unusedSimpArgs false

set_option maxRecDepth 100000 in
set_option maxHeartbeats 1000000 in
theorem putData_any (f : Fr) (pb : Option Addr) (pl pc : Nat) (w : World) (o : Value) (l : List UInt8) (hR : Row w o l) (hlen : l.length + f.data.size ≤ 140737488355328) :
    Calls Tryd.prog 62 #[o, .agg (fv f (.slice pb pl pc))] w fun e w' => ∃ o', e = .returned o' ∧ Row w' o' (l ++ f.data.data.toList) ∧ Gr w w' o o' := by
  obtain ⟨o', w', hrun, hR', hG⟩ := row_append_str (w.alloc (.cells (fv f (.slice pb pl pc)) 28)) o l (hR.alloc _) f.data hlen
  have hG' := (Gr.alloc w (.cells (fv f (.slice pb pl pc)) 28) o).trans hG
  clear hG
  unfold fv at *
  replace hrun : Hid _ := hrun
  go_enter Tryd.func62, Tryd.ntmps62
  go_wp2_with (at_builtin; refine Lib.wpList_append_run _ rfl (.tmp 5) (.tmp 7) 34 9 rfl _ _ rfl rfl _ _ hrun.out ?_)
  go_ret
  exact ⟨_, rfl, hR', hG'⟩

set_option maxRecDepth 100000 in
set_option maxHeartbeats 1000000 in
theorem equal_none (w : World) (pb qb : Option Addr) (pc qc : Nat) :
    Calls Tryd.prog 42 #[.slice pb 0 pc, .slice qb 0 qc] w fun e w' => e = .returned (.bool true) ∧ w' = w := by
  go_enter Tryd.func42, Tryd.ntmps42
  go_wp2
  go_loop [13] (fun i => i = .int .i64 0) (fun _ => 0)
  case atStart => rfl
  case round =>
    subst hrel
    go_wp2
    go_ret
    exact ⟨rfl, rfl⟩

set_option maxRecDepth 100000 in
set_option maxHeartbeats 2000000 in
theorem sameW_eq (f : Fr) (w : World) (pb : Option Addr) (pl pc : Nat) (qb : Option Addr) (ql qc : Nat) (heq : ∀ W : World, Below w.heap.size w W → Calls Tryd.prog 42 #[.slice pb pl pc, .slice qb ql qc] W fun e w' => e = .returned (.bool true) ∧ w' = W) :
    Calls Tryd.prog 32 #[.agg (fv f (.slice pb pl pc)), .agg (fv f (.slice qb ql qc))] w fun e w' => e = .returned (.bool true) ∧ Below w.heap.size w w' := by
  have HE : Hid _ := heq
  clear heq
  unfold fv
  go_enter Tryd.func32, Tryd.ntmps32
  go_wp2_with (go_at_call 42; refine (HE.out _ (by (repeat (first | exact Below.refl _ _ | refine Below.drew ?_ | refine Below.alloc ?_ (by first | exact Nat.le_refl _ | (simp only [size_al, size_dr]; omega)) _)))).mono ?_; rintro e w' ⟨rfl, rfl⟩)
  go_ret
  exact ⟨rfl, (by (repeat (first | exact Below.refl _ _ | refine Below.drew ?_ | refine Below.alloc ?_ (by first | exact Nat.le_refl _ | (simp only [size_al, size_dr]; omega)) _)))⟩

set_option maxRecDepth 100000 in
set_option maxHeartbeats 2000000 in
theorem write_ok (f : Fr) (ps : List (Int × Int)) (pb : Option Addr) (pl pc : Nat) (w : World) (b : ByteArray) (hlen : b.size ≤ 65545)
    (hasm : ∀ W : World, Below w.heap.size w W → Calls Tryd.prog 30 #[.agg (fv f (.slice pb pl pc))] W fun e w' => e = .returned (.string b) ∧ Below W.heap.size W w')
    (hparse : ∀ W : World, Below w.heap.size w W → Calls Tryd.prog 31 #[.string b] W fun e w' => PPost W ((f, ps), 0, 0) e w')
    (hsame : ∀ (W : World) (qb : Option Addr) (ql qc : Nat), Below w.heap.size w W → PRow W (.slice qb ql qc) ps → Calls Tryd.prog 32 #[.agg (fv f (.slice qb ql qc)), .agg (fv f (.slice pb pl pc))] W fun e w' => e = .returned (.bool true) ∧ Below W.heap.size W w') :
    Calls Tryd.prog 18 #[.agg (fv f (.slice pb pl pc))] w fun e w' => e = .returned (.tuple #[.string b, .int .i64 0]) ∧ Below w.heap.size w w' := by
  have hasm2 : Hid (∀ W : World, Below w.heap.size w W → FB W w.heap.size f (.slice pb pl pc) → Calls Tryd.prog 30 #[.agg (fv f (.slice pb pl pc))] W fun e w' => e = .returned (.string b) ∧ Below w.heap.size w w' ∧ FB w' w.heap.size f (.slice pb pl pc)) := by
    intro W h1 h2
    refine (hasm W h1).mono ?_
    rintro e w' ⟨rfl, h3⟩
    exact ⟨rfl, h1.trans (h3.mono h1.size), h2.below h3⟩
  have hparse2 : Hid (∀ W : World, Below w.heap.size w W → FB W w.heap.size f (.slice pb pl pc) → Calls Tryd.prog 31 #[.string b] W fun e w' => ∃ qb ql qc, e = .returned (.tuple #[.agg (fv f (.slice qb ql qc)), .agg #[.int .i64 0, .int .i64 0]]) ∧ PRow w' (.slice qb ql qc) ps ∧ Below w.heap.size w w' ∧ FB w' w.heap.size f (.slice pb pl pc)) := by
    intro W h1 h2
    refine (hparse W h1).mono ?_
    rintro e w' ⟨p, rfl, q1, q2, q3⟩
    obtain ⟨qb, qc, rfl⟩ := q1.slice
    exact ⟨qb, _, qc, rfl, q1, h1.trans (q3.mono h1.size), h2.below q3⟩
  have HS : Hid _ := hsame
  clear hasm hparse hsame
  unfold fv at *
  go_enter Tryd.func18, Tryd.ntmps18
  go_wp2_with (first
    | (go_at_call 30; refine (hasm2.out _ ((Below.refl _ w).alloc (Nat.le_refl _) _) (heap_alloc_new w _)).mono ?_; rintro e wy ⟨rfl, hy1, hy2⟩)
    | (go_at_call 31; refine (hparse2.out _ hy1 hy2).mono ?_; rintro e wz ⟨qb, ql, qc, rfl, hz1, hz2, hz3⟩; obtain ⟨c0, c1, c2, c3, c4, c5, c6, c7, c8, c9, c10⟩ := hz3.cells; have hlt := hz3.lt))
  have hbw : Below w.heap.size w ((wz.alloc (.cells (fv f (.slice qb ql qc)) 28)).alloc (.cells #[.int .i64 0, .int .i64 0] 30)) := (hz2.alloc hz2.size _).alloc (by rw [size_al]; have := hz2.size; omega) _
  have hrow : PRow ((wz.alloc (.cells (fv f (.slice qb ql qc)) 28)).alloc (.cells #[.int .i64 0, .int .i64 0] 30)) (.slice qb ql qc) ps := hz1.below fun k _ hk => by rw [heap_al, if_neg (by rw [size_al]; omega), heap_al, if_neg (by omega)]
  refine (HS.out _ qb ql qc hbw hrow).mono ?_
  rintro e wq ⟨rfl, hq⟩
  have hb' : (b.size : Int) ≤ 65545 := by omega
  have hfin := hbw.trans (hq.mono hbw.size)
  clear hrow hbw hq
  go_wp2_with fail
  go_ret2
  exact ⟨rfl, hfin⟩
end Go.Proofs.YtmhbaaemihljjaaDoor
