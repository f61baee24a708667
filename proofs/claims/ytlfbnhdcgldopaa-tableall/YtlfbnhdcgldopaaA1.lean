import Derived.Test.YtlfbnhdcgldopaaSpec
import Derived.WalkKit
import Derived.WalkSpells
import Derived.WalkLawsBesides
import Derived.Deep.WholeRow
namespace Go.Proofs.Ytlfbnhdcgldopaa
open Go.RowKit

set_option maxHeartbeats 400000 in
theorem isMax_any (a : Int) (w : World) :
    Calls Try.prog 26 #[.int .i64 a] w fun e w' => e = .returned (.bool (decide (0 ≤ a ∧ a ≤ 65536))) ∧ w' = w := by
  by_cases h1 : 0 ≤ a <;> by_cases h2 : a ≤ 65536
  all_goals
    go_enter Try.func26, Try.ntmps26
    go_wp2
    go_ret
    exact ⟨by simp [h1, h2], rfl⟩

def Fixed : Value := .agg (cellsOf fixedL).toArray

theorem z80 : ∃ Z : Array Value, Z.size = 122 ∧ ∀ w, (zeroValue 80).run Try.prog w = .ok (.agg Z) w :=
  ⟨Array.replicate 122 (.string ⟨#[]⟩), by simp, fun w => by kernel_rfl⟩

section
variable {P : Program} {ops : Array Oper} {Q : Exit → Act → World → Prop} {a : Act} {w : World} {o : Oper} {rest : List Oper}

theorem wpL_val (hg : o.guard = none) (v : Value) (w' : World) (hv : (execOp a.eval o).run P w = .ok (.value v) w') (h : wpList P ops Q rest (a.put o.dst v) w') : wpList P ops Q (o :: rest) a w :=
  wpList_plain hg fun K hK => by unfold Oper.wp; rw [hv]; exact hK _ _ h

theorem wpL_store (hg : o.guard = none) (t : TypeId) (p x : Operand) (ho : o.op = .store t p x) {pv xv : Value} {w' : World} (hp : a.eval p = pv) (hx : a.eval x = xv) (hr : (Instr.storeAt t pv xv).run P w = .ok () w') (h : wpList P ops Q rest (a.put o.dst undef) w') : wpList P ops Q (o :: rest) a w :=
  wpList_plain hg fun K hK => by
    unfold Oper.wp execOp
    simp only [ho, hp, hx, Sem.run_bind, hr, Result.andThen_ok, Sem.run_pure]
    exact hK _ _ h

theorem wpL_eq {l l' : List Oper} (h : l' = l) (hw : wpList P ops Q l' a w) : wpList P ops Q l a w := h ▸ hw

theorem wpL_split {l : List Oper} (n : Nat) (pre : List Oper) (h : l.take n = pre) (hw : wpList P ops Q (pre ++ l.drop n) a w) : wpList P ops Q l a w := by
  rw [← h, List.take_append_drop] at hw
  exact hw

theorem then_normal {K : Act → World → Prop} (h : K a w) : Exit.then K Q .normal a w := h

def buildOp (x : E × Nat) : Oper := { dst := some (x.2 + 1), op := Op.build 64 #[(0, Operand.const (.string x.1.1)), (1, Operand.const (.string x.1.2))], type := 64, pos := "fixed.go:8", after := #[], guard := none }

def putAll : List (E × Nat) → Act → Act
  | [], a => a
  | x :: r, a => putAll r (a.put (some (x.2 + 1)) (encE x.1))

theorem wpL_builds (l : List (E × Nat)) : ∀ (a : Act), wpList Try.prog ops Q rest (putAll l a) w → wpList Try.prog ops Q (l.map buildOp ++ rest) a w := by
  induction l with
  | nil => intro a h; exact h
  | cons x r ih =>
    intro a h
    refine wpL_val rfl (encE x.1) w ?_ (ih _ h)
    have h1 := Try.zeroValue64 w
    have h2 := Try.underlying64
    simp [buildOp, execOp, encE]
    go_simp
    done
end

set_option maxRecDepth 100000 in
set_option maxHeartbeats 4000000 in
theorem fixed_any (w : World) :
    Calls Try.prog 47 #[] w fun e w' => e = .returned Fixed ∧ Below w.heap.size w w' := by
  obtain ⟨Z, hZs, hz⟩ := z80
  go_enter Try.func47, Try.ntmps47
  refine wp_seq (wp_region_lit (wpL_val rfl (.pointer (some ⟨w.heap.size, 0, none⟩)) (w.alloc (.cells Z 80)) ?_ (wpList_nil (then_normal ?_))))
  · simp [execOp, Instr.alloc, hz, newVar, newRow, Value.cells, newObj, Sem.run]
    done
  refine wp_seq (wp_region_lit (wpL_split 61 (fixedL.zipIdx.map buildOp) ?hl (wpL_builds _ _ ?_)))
  case hl => kernel_rfl
  simp only [List.drop_succ_cons, List.drop_zero]
  refine wpL_val rfl Fixed (w.alloc (.cells Z 80)) ?hb ?_
  case hb => kernel_rfl
  refine wpL_store rfl 80 (.tmp 0) (.tmp 62) rfl (pv := .pointer (some ⟨w.heap.size, 0, none⟩)) (xv := Fixed) ?hp ?hx (run_storeAt_new (P := Try.prog) w 80 Z (cellsOf fixedL).toArray (by kernel_rfl) (by rw [hZs]; kernel_rfl) (by kernel_rfl))
    (wpList_nil (then_normal (wp_ret (bodyPost_ret (results_cell_row (p := 0) (ty := 80) rfl _ _ w.heap.size 80 (cellsOf fixedL).toArray (0, 0) _ ?hq (heap_alloc_new _ _) Try.underlying80 rfl (by kernel_rfl)) ?hd ⟨rfl, (Below.refl _ _).alloc (Nat.le_refl _) _⟩))))
  case hp => kernel_rfl
  case hx => kernel_rfl
  case hq => kernel_rfl
  case hd => kernel_rfl

end Go.Proofs.Ytlfbnhdcgldopaa
