/- copyOf; goesOn, breakBy; the laws' own and made. -/
import Derived.Test.YtdgdjanchpfleaaA1
namespace Go.Proofs.Ytdgdjanchpfleaa
open Go.RowKit
set_option linter.unusedVariables false
set_option linter.unusedSimpArgs false

theorem FB.cells {w : World} {g : Nat} {f : Fr} {p : Value} (h : FB w g f p) : w.cell? ⟨g, 0, none⟩ = some (.int .i64 f.ty) ∧ w.cell? ⟨g, 1, none⟩ = some (.int .i64 f.fl) ∧ w.cell? ⟨g, 2, none⟩ = some (.int .i64 f.st) ∧ w.cell? ⟨g, 3, none⟩ = some (.string f.data) ∧ w.cell? ⟨g, 4, none⟩ = some (.int .i64 f.pad) ∧
    w.cell? ⟨g, 5, none⟩ = some (.int .i64 f.dep) ∧ w.cell? ⟨g, 6, none⟩ = some (.bool f.excl) ∧ w.cell? ⟨g, 7, none⟩ = some (.int .i64 f.wt) ∧ w.cell? ⟨g, 8, none⟩ = some (.int .i64 f.code) ∧ w.cell? ⟨g, 9, none⟩ = some (.int .i64 f.last) ∧ w.cell? ⟨g, 10, none⟩ = some p :=
  ⟨h.cell 0, h.cell 1, h.cell 2, h.cell 3, h.cell 4, h.cell 5, h.cell 6, h.cell 7, h.cell 8, h.cell 9, h.cell 10⟩
theorem FB.frozens {w : World} {g : Nat} {f : Fr} {p : Value} (h : FB w g f p) : w.frozen? ⟨g, 0, none⟩ = false ∧ w.frozen? ⟨g, 1, none⟩ = false ∧ w.frozen? ⟨g, 2, none⟩ = false ∧ w.frozen? ⟨g, 3, none⟩ = false ∧ w.frozen? ⟨g, 4, none⟩ = false ∧
    w.frozen? ⟨g, 5, none⟩ = false ∧ w.frozen? ⟨g, 6, none⟩ = false ∧ w.frozen? ⟨g, 7, none⟩ = false ∧ w.frozen? ⟨g, 8, none⟩ = false ∧ w.frozen? ⟨g, 9, none⟩ = false ∧ w.frozen? ⟨g, 10, none⟩ = false :=
  ⟨h.frozen 0, h.frozen 1, h.frozen 2, h.frozen 3, h.frozen 4, h.frozen 5, h.frozen 6, h.frozen 7, h.frozen 8, h.frozen 9, h.frozen 10⟩
theorem JB.cells {w : World} {g : Nat} {f : Fr} {p s : Value} {c : Int} (h : JB w g f p s c) : w.cell? ⟨g, 0, none⟩ = some (.int .i64 f.ty) ∧ w.cell? ⟨g, 1, none⟩ = some (.int .i64 f.fl) ∧ w.cell? ⟨g, 2, none⟩ = some (.int .i64 f.st) ∧ w.cell? ⟨g, 3, none⟩ = some (.string f.data) ∧ w.cell? ⟨g, 4, none⟩ = some (.int .i64 f.pad) ∧
    w.cell? ⟨g, 5, none⟩ = some (.int .i64 f.dep) ∧ w.cell? ⟨g, 6, none⟩ = some (.bool f.excl) ∧ w.cell? ⟨g, 7, none⟩ = some (.int .i64 f.wt) ∧ w.cell? ⟨g, 8, none⟩ = some (.int .i64 f.code) ∧ w.cell? ⟨g, 9, none⟩ = some (.int .i64 f.last) ∧ w.cell? ⟨g, 10, none⟩ = some p ∧
    w.cell? ⟨g, 11, none⟩ = some s ∧ w.cell? ⟨g, 12, none⟩ = some (.int .i64 c) ∧ w.cell? ⟨g, 13, none⟩ = some (.int .i64 0) :=
  ⟨h.cell 0, h.cell 1, h.cell 2, h.cell 3, h.cell 4, h.cell 5, h.cell 6, h.cell 7, h.cell 8, h.cell 9, h.cell 10, h.cell 11, h.cell 12, h.cell 13⟩
theorem JB.frozens {w : World} {g : Nat} {f : Fr} {p s : Value} {c : Int} (h : JB w g f p s c) : w.frozen? ⟨g, 0, none⟩ = false ∧ w.frozen? ⟨g, 1, none⟩ = false ∧ w.frozen? ⟨g, 2, none⟩ = false ∧ w.frozen? ⟨g, 3, none⟩ = false ∧ w.frozen? ⟨g, 4, none⟩ = false ∧
    w.frozen? ⟨g, 5, none⟩ = false ∧ w.frozen? ⟨g, 6, none⟩ = false ∧ w.frozen? ⟨g, 7, none⟩ = false ∧ w.frozen? ⟨g, 8, none⟩ = false ∧ w.frozen? ⟨g, 9, none⟩ = false ∧ w.frozen? ⟨g, 10, none⟩ = false ∧ w.frozen? ⟨g, 11, none⟩ = false ∧ w.frozen? ⟨g, 12, none⟩ = false ∧ w.frozen? ⟨g, 13, none⟩ = false :=
  ⟨h.frozen 0, h.frozen 1, h.frozen 2, h.frozen 3, h.frozen 4, h.frozen 5, h.frozen 6, h.frozen 7, h.frozen 8, h.frozen 9, h.frozen 10, h.frozen 11, h.frozen 12, h.frozen 13⟩

theorem FB.sets {w : World} {g : Nat} {f : Fr} {p : Value} (h : FB w g f p) (f' : Fr) (p' : Value) : FB (sets w g (fsets f' p')) g f' p' := by
  unfold FB
  rw [sets_block _ _ _ _ _ _ h]
  simp only [fsets, fv, List.foldl_cons, List.foldl_nil, List.setIfInBounds_toArray, List.set_cons_zero, List.set_cons_succ]
theorem FB.set10 {w : World} {g : Nat} {f : Fr} {p : Value} (h : FB w g f p) (p' : Value) : FB (w.setCell ⟨g, 10, none⟩ p') g f p' := by
  unfold FB
  rw [setCell_block _ _ _ _ _ _ _ h]
  rfl
theorem FB.al2 (w : World) (f f' : Fr) (p p' : Value) : FB ((w.alloc (.cells (fv f p) 24)).alloc (.cells (fv f' p') 24)) w.heap.size f p ∧ FB ((w.alloc (.cells (fv f p) 24)).alloc (.cells (fv f' p') 24)) (w.heap.size + 1) f' p' := by
  constructor
  · unfold FB
    rw [heap_al, if_neg (by rw [size_al]; omega), heap_al, if_pos rfl]
  · unfold FB
    rw [heap_al, if_pos (by rw [size_al])]
theorem fv_zero : fv Fr.zero (.slice none 0 0) = #[.int .i64 0, .int .i64 0, .int .i64 0, .string ⟨#[]⟩, .int .i64 0, .int .i64 0, .bool false, .int .i64 0, .int .i64 0, .int .i64 0, .slice none 0 0] := rfl

/-- the last part of copyOf and own: the params set anew, all handed on -/
theorem cp_fin {w w3 : World} {f f0 : Fr} {p p0 q : Value} (b1 : FB w3 w.heap.size f p) (b2 : FB w3 (w.heap.size + 1) f0 p0) (hb : Below w.heap.size w w3) :
    FB (sets (w3.setCell ⟨w.heap.size, 10, none⟩ q) (w.heap.size + 1) (fsets f q)) (w.heap.size + 1) f q ∧ Below w.heap.size w (sets (w3.setCell ⟨w.heap.size, 10, none⟩ q) (w.heap.size + 1) (fsets f q)) ∧
    ∀ k, k ≠ w.heap.size → k ≠ w.heap.size + 1 → (sets (w3.setCell ⟨w.heap.size, 10, none⟩ q) (w.heap.size + 1) (fsets f q)).heap[k]? = w3.heap[k]? := by
  refine ⟨FB.sets (f := f0) (p := p0) ((setCell_other _ _ _ _ _ (by omega)).trans b2) f q, (hb.trans ((Below.refl _ w3).setCell (p := ⟨w.heap.size, 10, none⟩) (Nat.le_refl _) q)).trans (sets_below _ _ (by omega) _ _), fun k h1 h2 => ?_⟩
  rw [sets_other _ _ h2, setCell_other _ _ _ _ _ h1]

set_option maxHeartbeats 2000000 in
set_option maxRecDepth 100000 in
theorem copyOf_any (f : Fr) (x : SV) (ps : List (Int × Int)) (w : World) (hI : In EP w (sv x) ps) (hlen : ps.length * 16 ≤ 140737488355328) :
    Calls Try.prog 27 #[.agg (fv f (sv x))] w fun e w' => ∃ y : SV, e = .returned (.agg (fv f (sv y))) ∧ R EP w' (sv y) ps ∧ (∀ k, (sv y).ownBlock = some k → w.heap.size ≤ k) ∧ Below w.heap.size w w' := by
  obtain ⟨W2, hW2⟩ : ∃ W2, W2 = (w.alloc (.cells (fv f (sv x)) 24)).alloc (.cells (fv Fr.zero (.slice none 0 0)) 24) := ⟨_, rfl⟩
  have hb2 : Below w.heap.size w W2 := by rw [hW2]; exact bel2 w _ _
  have hs2 : W2.heap.size = w.heap.size + 1 + 1 := by rw [hW2, size_al, size_al]
  obtain ⟨b1, b2⟩ : FB W2 w.heap.size f (sv x) ∧ FB W2 (w.heap.size + 1) Fr.zero (.slice none 0 0) := by rw [hW2]; exact FB.al2 w _ _ _ _
  have hC : Hid (Calls Try.prog 34 #[sv x] W2 fun r w3 => ∃ y : SV, r = .returned (sv y) ∧ Hid (R EP w3 (sv y) ps ∧ (∀ k, (sv y).ownBlock = some k → w.heap.size + 1 + 1 ≤ k) ∧ Below w.heap.size w w3) ∧ FB w3 w.heap.size f (sv x) ∧ FB w3 (w.heap.size + 1) Fr.zero (.slice none 0 0)) := by
    refine (sclone_any W2 (sv x) ps (hI.below hb2) hlen).mono ?_
    rintro r w3 ⟨y, rfl, h1, h2, h3⟩
    exact ⟨y, rfl, ⟨h1, fun k hk => by have := h2 k hk; omega, hb2.trans (h3.mono (by omega))⟩, b1.below h3, b2.below h3⟩
  clear b1 b2 hI hb2 hs2
  rw [fv_zero] at hW2
  replace hW2 : Hid _ := hW2
  have hW2' := hW2.out
  unfold fv at hW2'
  rw [hW2'] at hC
  clear hW2' hW2
  obtain ⟨xb, xl, xc⟩ := x
  simp only [sv] at hC ⊢
  unfold fv
  go_enter Try.func27, Try.ntmps27
  go_wp2_with fail
  go_at_call 34
  refine hC.out.mono ?_
  rintro e w3 ⟨⟨yb, yl, yc⟩, rfl, h1, h2, h3⟩
  obtain ⟨z0, z1, z2, z3, z4, z5, z6, z7, z8, z9, z10⟩ := h2.cells
  obtain ⟨y0, y1, y2, y3, y4, y5, y6, y7, y8, y9, y10⟩ := h2.frozens
  obtain ⟨u0, u1, u2, u3, u4, u5, u6, u7, u8, u9, u10⟩ := h3.cells
  obtain ⟨v0, v1, v2, v3, v4, v5, v6, v7, v8, v9, v10⟩ := h3.frozens
  have hfin : Hid _ := cp_fin (q := .slice yb yl yc) h2 h3 h1.out.2.2
  have l0 : w.heap.size + 1 < w3.heap.size := h3.lt
  simp only [Fr.zero] at u0 u1 u2 u3 u4 u5 u6 u7 u8 u9 u10
  clear h2 h3 hC
  simp only [sv]
  go_wp2_with fail
  obtain ⟨q1, q2, q3⟩ := hfin.out
  simp only [sets, fsets, List.foldl_cons, List.foldl_nil] at q1 q2 q3
  refine bodyPost_ret (results_cell_row (p := 2) (ty := 24) rfl _ _ (w.heap.size + 1) 24 (fv f (.slice yb yl yc)) (0, 0) _ rfl q1 Try.underlying24 rfl (by kernel_rfl)) rfl ⟨yb, yl, yc, rfl, h1.out.1.stays fun k hk _ => ?_, fun k hk => by have := h1.out.2.1 k hk; omega, q2⟩
  have := h1.out.2.1 k hk
  exact q3 k (by omega) (by omega)
end Go.Proofs.Ytdgdjanchpfleaa
