/- A manifest by its rules; rows built at once. -/
import Derived.Test.YtldnibkgdpeocaaC2
namespace Go.Proofs.Ytldnibkgdpeocaa
open Go.RowKit Go.Maps
open Go.Shelf
set_option linter.unusedVariables false
set_option linter.unusedSimpArgs false

/-- what a target names, by the rules -/
def nmP (ps : List Pu) (t : Tg) : List Tg := match ps.find? (fun p => decide (p.1 = t)) with | some p => p.2 | none => []
theorem nmR_eq (L : List Ru) : nmR L = nmP (L.map puR) := by
  funext t
  unfold nmR nmP
  rw [List.find?_map]
  show (match L.find? (fun r => decide (r.t = t)) with | some r => r.l | none => []) = (match (L.find? (fun r => decide (r.t = t))).map puR with | some p => p.2 | none => [])
  cases L.find? (fun r => decide (r.t = t)) <;> rfl
/-- a manifest of these rules in memory, its blocks from lo on, below hi -/
def MM (w : World) (lo hi g : Nat) (ps : List Pu) : Prop := ∃ b L, Mf w lo hi g b L ∧ (L.map Ru.t).Nodup ∧ L.map puR = ps
theorem MM.of {w w' : World} {g : Nat} {ps : List Pu} (h : Mn w w' g ps) : MM w' w.heap.size w'.heap.size g ps := by
  obtain ⟨b, L, h1, h2, h3, _⟩ := h
  exact ⟨b, L, h1, h2, h3⟩
theorem MM.below {w w' : World} {lo hi g : Nat} {ps : List Pu} (h : MM w lo hi g ps) (hb : Below w.heap.size w w') : MM w' lo hi g ps := by
  obtain ⟨b, L, h1, h2, h3⟩ := h
  exact ⟨b, L, h1.below hb, h2, h3⟩
theorem MM.keep {w w' : World} {lo hi g : Nat} {ps : List Pu} (h : MM w lo hi g ps) (hs : w.heap.size ≤ w'.heap.size) (hk : ∀ k, lo ≤ k → k < hi → w'.heap[k]? = w.heap[k]?) : MM w' lo hi g ps := by
  obtain ⟨b, L, h1, h2, h3⟩ := h
  exact ⟨b, L, h1.keep hs hk, h2, h3⟩
theorem MM.plan {w : World} {lo hi g : Nat} {ps : List Pu} (h : MM w lo hi g ps) (t : Tg) (ht : tz t) (most : Int) : Calls Try.prog 12 #[.pointer (some ⟨g, 0, none⟩), .agg (tgv t), .int .i64 most] w fun e w' => PlPost (plan (nmP ps) t most) w e w' := by
  obtain ⟨b, L, h1, h2, h3⟩ := h
  have := plan_any L h2 lo hi g b t ht most w h1
  rw [nmR_eq, h3] at this
  exact this

theorem in_whole {α : Type} {E : El α} {w : World} {g : Nat} {c : Array Value} {t : TypeId} {fz : Nat × Nat} (l : List α) (hl : l.length ≤ 64) (h : w.heap[g]? = some (.cells c t fz)) (hc : c.toList = E.cs l) : In E w (.slice (some ⟨g, 0, none⟩) l.length l.length) l := by
  refine .inr ⟨_, l.length, rfl, Nat.le_refl _, by omega, fun j u hu => ?_⟩
  rw [Addr.add_lit, cell_blk h, Nat.zero_add, ← Array.getElem?_toList, hc]
  exact hu
theorem build2 (a b c d : ByteArray) (w : World) : (Instr.buildSlice 27 2 #[(0, .agg #[.string a, .string b]), (1, .agg #[.string c, .string d])]).run Try.prog w = .ok (.slice (some ⟨w.heap.size, 0, none⟩) 2 2) (w.alloc (.cells #[.string a, .string b, .string c, .string d] 26)) := by
  kernel_rfl
theorem build3 (a b c d e f : ByteArray) (w : World) : (Instr.buildSlice 27 3 #[(0, .agg #[.string a, .string b]), (1, .agg #[.string c, .string d]), (2, .agg #[.string e, .string f])]).run Try.prog w = .ok (.slice (some ⟨w.heap.size, 0, none⟩) 3 3) (w.alloc (.cells #[.string a, .string b, .string c, .string d, .string e, .string f] 26)) := by
  kernel_rfl
theorem build3R (a b c d e f : ByteArray) (x y z : Option Addr) (n m k n' m' k' : Nat) (w : World) : (Instr.buildSlice 23 3 #[(0, .agg #[.string a, .string b, .slice x n n']), (1, .agg #[.string c, .string d, .slice y m m']), (2, .agg #[.string e, .string f, .slice z k k'])]).run Try.prog w = .ok (.slice (some ⟨w.heap.size, 0, none⟩) 3 3) (w.alloc (.cells #[.string a, .string b, .slice x n n', .string c, .string d, .slice y m m', .string e, .string f, .slice z k k'] 29)) := by
  kernel_rfl
theorem wpList_build_run {P : Program} (w : World) {ops : Array Oper} {rest : List Oper} {o : Oper} {a : Act} {Q : Exit → Act → World → Prop} (hgd : o.guard = none) (t : TypeId) (n : Nat) (parts : Array (Nat × Operand))
    (ho : o.op = .buildSlice t n parts) (vs : Array (Nat × Value)) (hs : (parts.map fun (i, x) => (i, a.eval x)) = vs)
    (v' : Value) (w' : World) (hr : (Instr.buildSlice t n vs).run P w = .ok v' w') (h : wpList P ops Q rest (a.put o.dst v') w') : wpList P ops Q (o :: rest) a w := by
  refine wpList_plain hgd fun _ hK => ?_
  unfold Oper.wp execOp
  simp only [ho, hs, hr, Sem.run_bind, Sem.run_pure, Result.andThen_ok]
  exact hK _ _ h
def xS : ByteArray := ⟨#[47, 120]⟩
def yS : ByteArray := ⟨#[47, 121]⟩
def zS : ByteArray := ⟨#[47, 122]⟩
def uS : ByteArray := ⟨#[47, 117]⟩
def ps0 : List Pu := [((aS, xS), [(aS, yS), (aS, zS)]), ((aS, yS), [(aS, uS)]), ((aS, uS), [(aS, xS), (aS, zS)])]
theorem plan0 : plan (nmP ps0) (aS, xS) 8 = [(aS, yS), (aS, uS), (aS, zS)] := by decide +kernel
theorem plan1 : plan (nmP ps0) (aS, yS) 1 = [(aS, uS)] := by decide +kernel
theorem plan2 : plan (nmP ps0) (aS, zS) 8 = [] := by decide +kernel
def rs0 (n1 n2 n3 : Nat) : List Ru := [⟨(aS, xS), (some ⟨n1, 0, none⟩, 2, 2), [(aS, yS), (aS, zS)]⟩, ⟨(aS, yS), (some ⟨n2, 0, none⟩, 1, 1), [(aS, uS)]⟩, ⟨(aS, uS), (some ⟨n3, 0, none⟩, 2, 2), [(aS, xS), (aS, zS)]⟩]
theorem of0 (n1 n2 n3 : Nat) : ofE (rs0 n1 n2 n3) = 0 := by kernel_rfl
theorem tz0 (p : ByteArray) (h : p.size ≤ 4096) : tz (aS, p) := ⟨by show aS.size ≤ _; decide, by show p.size ≤ _; omega⟩
end Go.Proofs.Ytldnibkgdpeocaa
