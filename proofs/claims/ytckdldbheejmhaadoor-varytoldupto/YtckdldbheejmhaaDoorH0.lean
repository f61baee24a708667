/- Three fields built as a row. -/
import Derived.Test.YtckdldbheejmhaaDoorB6
namespace Go.Proofs.YtckdldbheejmhaaDoor
open Go.RowKit
set_option linter.unusedVariables false
set_option linter.unusedSimpArgs false
theorem build3 (a b c d e f : ByteArray) (x y z : Bool) (w : World) : (Instr.buildSlice 22 3 #[(0, .agg #[.string a, .string b, .bool x]), (1, .agg #[.string c, .string d, .bool y]), (2, .agg #[.string e, .string f, .bool z])]).run Tryd.prog w = .ok (.slice (some ⟨w.heap.size, 0, none⟩) 3 3) (w.alloc (.cells #[.string a, .string b, .bool x, .string c, .string d, .bool y, .string e, .string f, .bool z] 30)) := by
  kernel_rfl
theorem wpList_build_run {P : Program} (w : World) {ops : Array Oper} {rest : List Oper} {o : Oper} {a : Act} {Q : Exit → Act → World → Prop} (hgd : o.guard = none) (t : TypeId) (n : Nat) (parts : Array (Nat × Operand))
    (ho : o.op = .buildSlice t n parts) (vs : Array (Nat × Value)) (hs : (parts.map fun (i, x) => (i, a.eval x)) = vs)
    (v' : Value) (w' : World) (hr : (Instr.buildSlice t n vs).run P w = .ok v' w') (h : wpList P ops Q rest (a.put o.dst v') w') : wpList P ops Q (o :: rest) a w := by
  refine wpList_plain hgd fun _ hK => ?_
  unfold Oper.wp execOp
  simp only [ho, hs, hr, Sem.run_bind, Sem.run_pure, Result.andThen_ok]
  exact hK _ _ h
end Go.Proofs.YtckdldbheejmhaaDoor
