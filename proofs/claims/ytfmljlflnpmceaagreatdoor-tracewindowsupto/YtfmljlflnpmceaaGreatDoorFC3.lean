/- What writes a payload. -/
import Derived.Test.YtfmljlflnpmceaaGreatDoorFC2
namespace Go.Proofs.YtfmljlflnpmceaaGreatDoor.Fm
open Go.RowKit
set_option linter.unusedVariables false
set_option linter.unusedSimpArgs false

/-- what a put does: bytes behind a row -/
def Puts (g : Nat) (f : Fr) (p : Value) (D : List UInt8) : Prop :=
  ∀ (w : World) (o : Value) (l : List UInt8), Row w o l → l.length + D.length + 100 ≤ 140737488355328 → Calls Tryz.prog g #[o, .agg (fv f p)] w fun e w' => ∃ o', e = .returned o' ∧ Row w' o' (l ++ D) ∧ Gr w w' o o'

/-- a put, inside a call that has boxed the frame -/
theorem Puts.boxed {g : Nat} {f : Fr} {p : Value} {D : List UInt8} (h : Puts g f p D) (w : World) (o0 o : Value) (B : Nat) (l : List UInt8) (W : World) (hF : FB W B f p) (hG : Gr w W o0 o) (hR : Row W o l) (hB : ∀ k, o.ownBlock = some k → k ≠ B) (hl : l.length + D.length + 100 ≤ 140737488355328) :
    Calls Tryz.prog g #[o, .agg (fv f p)] W fun e w' => ∃ o', e = .returned o' ∧ Row w' o' (l ++ D) ∧ Gr w w' o0 o' ∧ FB w' B f p ∧ ∀ k, o'.ownBlock = some k → k ≠ B := by
  refine (h W o l hR hl).mono ?_
  rintro e w' ⟨o', rfl, h1, h2⟩
  refine ⟨o', rfl, h1, hG.trans h2, (h2.block B hF.lt (fun e => hB B e rfl)).trans hF, fun k hk => (h2.own k hk).elim (hB k) fun hh => ?_⟩
  have := hF.lt
  omega

theorem puts_data (f : Fr) (pb : Option Addr) (pl pc : Nat) : Puts 103 f (.slice pb pl pc) f.data.data.toList := by
  intro w o l hR hl
  have e : f.data.data.toList.length = f.data.size := by simp
  exact putData_any f pb pl pc w o l hR (by omega)

set_option maxRecDepth 100000 in
set_option maxHeartbeats 1000000 in
theorem puts_code (f : Fr) (pb : Option Addr) (pl pc : Nat) : Puts 96 f (.slice pb pl pc) (be 4 f.code) := by
  intro w o l hR hl
  have hl4 : l.length + 4 ≤ 140737488355328 := by omega
  have HR : Hid (Row w o l) := hR
  clear hR
  unfold fv
  go_enter Tryz.func96, Tryz.ntmps96
  go_wp2_with fail
  refine (putNumber4 _ o l _ (HR.out.alloc _) hl4).mono ?_
  rintro e w1 ⟨o', rfl, h1, h2⟩
  have h3 := (Gr.alloc w _ o).trans h2
  clear h2
  go_wp2_with fail
  go_ret
  exact ⟨_, rfl, h1, h3⟩

set_option maxRecDepth 100000 in
set_option maxHeartbeats 1000000 in
theorem puts_last (f : Fr) (pb : Option Addr) (pl pc : Nat) : Puts 107 f (.slice pb pl pc) (be 4 (f.last % 2147483648)) := by
  intro w o l hR hl
  have hl4 : l.length + 4 ≤ 140737488355328 := by omega
  have hand := and31 f.last
  have HR : Hid (Row w o l) := hR
  clear hR
  unfold fv
  go_enter Tryz.func107, Tryz.ntmps107
  go_wp2_with fail
  refine (putNumber4 _ o l _ (HR.out.alloc _) hl4).mono ?_
  rintro e w1 ⟨o', rfl, h1, h2⟩
  have h3 := (Gr.alloc w _ o).trans h2
  clear h2
  go_wp2_with fail
  go_ret
  exact ⟨_, rfl, h1, h3⟩

set_option maxRecDepth 100000 in
set_option maxHeartbeats 2000000 in
theorem puts_promise (f : Fr) (pb : Option Addr) (pl pc : Nat) : Puts 101 f (.slice pb pl pc) (be 4 (f.last % 2147483648) ++ f.data.data.toList) := by
  intro w o l hR hl
  have hlo : ∀ k, o.ownBlock = some k → k ≠ w.heap.size := fun k hk => by have := hR.lt k hk; omega
  have hF0 : FB (w.alloc (.cells (fv f (.slice pb pl pc)) 31)).drew w.heap.size f (.slice pb pl pc) := heap_alloc_new w _
  have hG0 : Gr w (w.alloc (.cells (fv f (.slice pb pl pc)) 31)).drew o o := (Gr.alloc w _ o).trans (Gr.drew _ o)
  have hR0 : Row (w.alloc (.cells (fv f (.slice pb pl pc)) 31)).drew o l := (hR.alloc _).below (Below.refl _ _).drew
  have C0 : Hid (Puts 107 f (.slice pb pl pc) (be 4 (f.last % 2147483648))) := puts_last f pb pl pc
  have C1 : Hid (Puts 103 f (.slice pb pl pc) (f.data.data.toList)) := puts_data f pb pl pc
  have hlen : Hid (l.length + (be 4 (f.last % 2147483648) ++ f.data.data.toList).length + 100 ≤ 140737488355328) := hl
  clear hR hl
  unfold fv at *
  go_enter Tryz.func101, Tryz.ntmps101
  go_wp2_with fail
  go_region_law (go_simp; go_wp2_with (first
    | (go_at_call 107; refine (C0.out.boxed w o _ w.heap.size _ _ hF0 hG0 hR0 hlo (by have := hlen.out; simp at this ⊢; omega)).mono ?_; rintro e w1 ⟨o1, rfl, r1, g1, f1, n1⟩; obtain ⟨c0, c1, c2, c3, c4, c5, c6, c7, c8, c9, c10⟩ := f1.cells)
    | (go_at_call 103; refine (C1.out.boxed w o _ w.heap.size _ _ f1 g1 r1 n1 (by have := hlen.out; simp at this ⊢; omega)).mono ?_; rintro e w2 ⟨o2, rfl, r2, g2, f2, n2⟩; obtain ⟨c0, c1, c2, c3, c4, c5, c6, c7, c8, c9, c10⟩ := f2.cells)
    ))
  all_goals
    go_wp2_with fail
    go_ret
    exact ⟨_, rfl, by first | exact r2 | (rw [← List.append_assoc]; exact r2) | (rw [← List.append_assoc, ← List.append_assoc]; exact r2), g2⟩

set_option maxRecDepth 100000 in
set_option maxHeartbeats 2000000 in
theorem puts_goaway (f : Fr) (pb : Option Addr) (pl pc : Nat) : Puts 105 f (.slice pb pl pc) (be 4 (f.last % 2147483648) ++ (be 4 f.code ++ f.data.data.toList)) := by
  intro w o l hR hl
  have hlo : ∀ k, o.ownBlock = some k → k ≠ w.heap.size := fun k hk => by have := hR.lt k hk; omega
  have hF0 : FB (w.alloc (.cells (fv f (.slice pb pl pc)) 31)).drew w.heap.size f (.slice pb pl pc) := heap_alloc_new w _
  have hG0 : Gr w (w.alloc (.cells (fv f (.slice pb pl pc)) 31)).drew o o := (Gr.alloc w _ o).trans (Gr.drew _ o)
  have hR0 : Row (w.alloc (.cells (fv f (.slice pb pl pc)) 31)).drew o l := (hR.alloc _).below (Below.refl _ _).drew
  have C0 : Hid (Puts 107 f (.slice pb pl pc) (be 4 (f.last % 2147483648))) := puts_last f pb pl pc
  have C1 : Hid (Puts 96 f (.slice pb pl pc) (be 4 f.code)) := puts_code f pb pl pc
  have C2 : Hid (Puts 103 f (.slice pb pl pc) (f.data.data.toList)) := puts_data f pb pl pc
  have hlen : Hid (l.length + (be 4 (f.last % 2147483648) ++ (be 4 f.code ++ f.data.data.toList)).length + 100 ≤ 140737488355328) := hl
  clear hR hl
  unfold fv at *
  go_enter Tryz.func105, Tryz.ntmps105
  go_wp2_with fail
  go_region_law (go_simp; go_wp2_with (first
    | (go_at_call 107; refine (C0.out.boxed w o _ w.heap.size _ _ hF0 hG0 hR0 hlo (by have := hlen.out; simp at this ⊢; omega)).mono ?_; rintro e w1 ⟨o1, rfl, r1, g1, f1, n1⟩; obtain ⟨c0, c1, c2, c3, c4, c5, c6, c7, c8, c9, c10⟩ := f1.cells)
    | (go_at_call 96; refine (C1.out.boxed w o _ w.heap.size _ _ f1 g1 r1 n1 (by have := hlen.out; simp at this ⊢; omega)).mono ?_; rintro e w2 ⟨o2, rfl, r2, g2, f2, n2⟩; obtain ⟨c0, c1, c2, c3, c4, c5, c6, c7, c8, c9, c10⟩ := f2.cells)
    | (go_at_call 103; refine (C2.out.boxed w o _ w.heap.size _ _ f2 g2 r2 n2 (by have := hlen.out; simp at this ⊢; omega)).mono ?_; rintro e w3 ⟨o3, rfl, r3, g3, f3, n3⟩; obtain ⟨c0, c1, c2, c3, c4, c5, c6, c7, c8, c9, c10⟩ := f3.cells)
    ))
  all_goals
    go_wp2_with fail
    go_ret
    exact ⟨_, rfl, by first | exact r3 | (rw [← List.append_assoc]; exact r3) | (rw [← List.append_assoc, ← List.append_assoc]; exact r3), g3⟩

end Go.Proofs.YtfmljlflnpmceaaGreatDoor.Fm
