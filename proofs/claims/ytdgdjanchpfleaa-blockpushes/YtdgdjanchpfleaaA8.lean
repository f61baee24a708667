/- maySplit, taken. -/
import Derived.Test.YtdgdjanchpfleaaA6
namespace Go.Proofs.Ytdgdjanchpfleaa
open Go.RowKit
set_option linter.unusedVariables false
set_option linter.unusedSimpArgs false

theorem ba_beq (a b : ByteArray) : (a == b) = true ↔ a = b := by
  constructor
  · intro h
    cases a; cases b
    have := (beq_iff_eq (α := Array UInt8)).1 h
    exact congrArg ByteArray.mk this
  · rintro rfl
    cases a
    exact (beq_iff_eq (α := Array UInt8)).2 rfl
theorem ba_nil (a : ByteArray) : a = ⟨#[]⟩ ↔ a.toList = [] := by
  rw [ByteArray.toList_eq]
  cases a
  simp
/-- May a frame stand at the head of a block that is to be cut? -/
def MS (f : Fr) : Prop := isH f.ty ∧ f.data = ⟨#[]⟩ ∧ 1 ≤ f.st ∧ 0 ≤ f.pad ∧ f.pad ≤ (if (bits .and .i64 f.fl 8 != 0) = true then 255 else 0)
def dMS (f : Fr) : Bool := dH f.ty && decide (f.data.toList = []) && decide (1 ≤ f.st) && decide (0 ≤ f.pad) && decide (f.pad ≤ (if (bits .and .i64 f.fl 8 != 0) = true then 255 else 0))
theorem dMS_iff (f : Fr) : dMS f = true ↔ MS f := by
  unfold dMS MS
  simp [and_assoc, ba_nil, dH_iff]

set_option maxHeartbeats 4000000 in
set_option maxRecDepth 100000 in
theorem maySplit_any (f : Fr) (p : Value) (w : World) :
    Calls Try.prog 25 #[.agg (fv f p)] w fun e w' => e = .returned (.bool (dMS f)) ∧ Below w.heap.size w w' := by
  have hC1 : Hid (∀ W, Calls Try.prog 33 #[.agg (fv f p)] W fun e w' => e = .returned (.bool (bits .and .i64 f.fl 8 != 0)) ∧ Below W.heap.size W w') := fun W => isPadded_any f p W
  have hC2 : Hid (∀ W, Calls Try.prog 23 #[.agg (fv f p)] W fun e w' => e = .returned (.bool (dH f.ty)) ∧ Below W.heap.size W w') := fun W => isHead_any f p W
  have B0 := bel1 w (.cells (fv f p) 24)
  have F0 : FB (w.alloc (.cells (fv f p) 24)) w.heap.size f p := by unfold FB; rw [heap_al, if_pos rfl]
  obtain ⟨W0, hW0⟩ : ∃ W0, W0 = w.alloc (.cells (fv f p) 24) := ⟨_, rfl⟩
  rw [← hW0] at B0 F0
  replace B0 : Hid (Below w.heap.size w W0) := B0
  replace F0 : Hid (FB W0 w.heap.size f p) := F0
  obtain ⟨P, hP⟩ : ∃ P, (bits .and .i64 f.fl 8 != 0) = P := ⟨_, rfl⟩
  obtain ⟨H, hH⟩ : ∃ H, dH f.ty = H := ⟨_, rfl⟩
  rw [hP] at hC1
  rw [hH] at hC2
  have hM : Hid (dMS f = (H && decide (f.data.toList = []) && decide (1 ≤ f.st) && decide (0 ≤ f.pad) && decide (f.pad ≤ (if P = true then 255 else 0)))) := by
    show _ = _
    rw [← hH, ← hP]
    rfl
  rw [hM.out]
  unfold fv at hC1 hC2 hW0 ⊢
  rw [hW0] at F0 B0
  clear hM hH hP hW0 W0
  cases P <;> cases H
  all_goals
    go_enter Try.func25, Try.ntmps25
    go_wp2_with fail
    go_at_call 33
    refine (hC1.out _).mono ?_
    rintro e w1 ⟨rfl, hb⟩
    have F1 := F0.out.below hb
    have B1 : Below w.heap.size w w1 := B0.out.trans (hb.mono B0.out.size)
    replace B1 : Hid _ := B1
    obtain ⟨c0, c1, c2, c3, c4, c5, c6, c7, c8, c9, c10⟩ := F1.cells
    go_wp2_with fail
    go_at_call 23
    refine (hC2.out _).mono ?_
    rintro e w2 ⟨rfl, hb2⟩
    have F2 := F1.below hb2
    have B2 : Below w.heap.size w w2 := B1.out.trans (hb2.mono B1.out.size)
    replace B2 : Hid _ := B2
    obtain ⟨d0, d1, d2, d3, d4, d5, d6, d7, d8, d9, d10⟩ := F2.cells
    clear c0 c1 c2 c3 c4 c5 c6 c7 c8 c9 c10 F1
  all_goals
    replace F2 : Hid True := True.intro
    clear hC1 hC2 F0
    go_wp2_with fail
    all_goals
      go_ret
      refine ⟨?_, B2.out⟩
      first | rfl | (simp [*]; done) | (simp [*]; omega)
/-- the bytes of a head frame's payload that are no room -/
def tkI (f : Fr) : Int := (if (bits .and .i64 f.fl 8 != 0) = true then 1 + f.pad else 0) + (if f.ty = 5 then 4 else if (bits .and .i64 f.fl 32 != 0) = true then 5 else 0)

set_option maxHeartbeats 4000000 in
set_option maxRecDepth 100000 in
theorem taken_any (f : Fr) (p : Value) (w : World) (h0 : 0 ≤ f.pad) (h1 : f.pad ≤ 255) :
    Calls Try.prog 26 #[.agg (fv f p)] w fun e w' => e = .returned (.int .i64 (tkI f)) ∧ Below w.heap.size w w' := by
  have hC1 : Hid (∀ W, Calls Try.prog 33 #[.agg (fv f p)] W fun e w' => e = .returned (.bool (bits .and .i64 f.fl 8 != 0)) ∧ Below W.heap.size W w') := fun W => isPadded_any f p W
  have B0 := bel1 w (.cells (fv f p) 24)
  have F0 : FB (w.alloc (.cells (fv f p) 24)) w.heap.size f p := by unfold FB; rw [heap_al, if_pos rfl]
  obtain ⟨W0, hW0⟩ : ∃ W0, W0 = w.alloc (.cells (fv f p) 24) := ⟨_, rfl⟩
  rw [← hW0] at B0 F0
  replace B0 : Hid (Below w.heap.size w W0) := B0
  replace F0 : Hid (FB W0 w.heap.size f p) := F0
  obtain ⟨P, hP⟩ : ∃ P, (bits .and .i64 f.fl 8 != 0) = P := ⟨_, rfl⟩
  obtain ⟨Q, hQ⟩ : ∃ Q, (bits .and .i64 f.fl 32 != 0) = Q := ⟨_, rfl⟩
  obtain ⟨T, hT⟩ : ∃ T, (f.ty == 5) = T := ⟨_, rfl⟩
  have hM : Hid (tkI f = (if P = true then 1 + f.pad else 0) + (if T = true then 4 else if Q = true then 5 else 0)) := by
    show _ = _
    unfold tkI
    rw [hP, hQ, ← hT]
    by_cases h5 : f.ty = 5 <;> simp [h5]
  obtain ⟨K, hK⟩ : ∃ K, tkI f = K := ⟨_, rfl⟩
  rw [hK] at hM ⊢
  rw [hP] at hC1
  unfold fv at hC1 hW0 ⊢
  rw [hW0] at F0 B0
  clear hP hW0 hK W0
  cases P <;> cases T <;> cases Q
  all_goals
    simp only [if_true, if_false, Bool.false_eq_true] at hM
    go_enter Try.func26, Try.ntmps26
    go_wp2_with fail
    go_at_call 33
    refine (hC1.out _).mono ?_
    rintro e w1 ⟨rfl, hb⟩
    have F1 := F0.out.below hb
    have B1 : Below w.heap.size w w1 := B0.out.trans (hb.mono B0.out.size)
    replace B1 : Hid _ := B1
    obtain ⟨c0, c1, c2, c3, c4, c5, c6, c7, c8, c9, c10⟩ := F1.cells
    replace F1 : Hid True := True.intro
    clear hC1 F0
    go_wp2_with fail
    go_ret
    refine ⟨?_, B1.out⟩
    have hm := hM.out
    exact congrArg (fun n => Ending.returned (Value.int .i64 n)) (by omega)
end Go.Proofs.Ytdgdjanchpfleaa
