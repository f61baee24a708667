/- own, made. -/
import Derived.Test.YtdgdjanchpfleaaB1
namespace Go.Proofs.Ytdgdjanchpfleaa
open Go.RowKit
set_option linter.unusedVariables false
set_option linter.unusedSimpArgs false

set_option maxHeartbeats 2000000 in
set_option maxRecDepth 100000 in
theorem own_any (f : Fr) (x : SV) (ps : List (Int × Int)) (w : World) (hI : In EP w (sv x) ps) (hlen : ps.length * 16 ≤ 140737488355328) :
    Calls Try.prog 11 #[.agg (fv f (sv x))] w fun e w' => ∃ y : SV, e = .returned (.agg (fv f (sv y))) ∧ R EP w' (sv y) ps ∧ (∀ k, (sv y).ownBlock = some k → w.heap.size ≤ k) ∧ Below w.heap.size w w' := by
  obtain ⟨W2, hW2⟩ : ∃ W2, W2 = (w.alloc (.cells (fv f (sv x)) 24)).alloc (.cells (fv Fr.zero (.slice none 0 0)) 24) := ⟨_, rfl⟩
  have hb2 : Below w.heap.size w W2 := by rw [hW2]; exact bel2 w _ _
  have hs2 : W2.heap.size = w.heap.size + 1 + 1 := by rw [hW2, size_al, size_al]
  obtain ⟨b1, b2⟩ : FB W2 w.heap.size f (sv x) ∧ FB W2 (w.heap.size + 1) Fr.zero (.slice none 0 0) := by rw [hW2]; exact FB.al2 w _ _ _ _
  obtain ⟨yb, yc, w3, hrun, hR, hG⟩ := app okP W2 (.slice none 0 0) [] (R.nil _ _) (sv x) ps (hI.below hb2) (by simpa [EP] using hlen)
  simp only [List.length_nil, Nat.zero_add, List.nil_append] at hrun hR hG
  have hb3 : Below W2.heap.size W2 w3 := hG.fresh
  have h2 := b1.below hb3
  have h3 := b2.below hb3
  have h1 : Hid (R EP w3 (.slice yb ps.length yc) ps ∧ (∀ k, (Value.slice yb ps.length yc).ownBlock = some k → w.heap.size + 1 + 1 ≤ k) ∧ Below w.heap.size w w3) := ⟨hR, fun k hk => by have := hG.new k hk; omega, hb2.trans (hb3.mono (by omega))⟩
  obtain ⟨z0, z1, z2, z3, z4, z5, z6, z7, z8, z9, z10⟩ := h2.cells
  obtain ⟨y0, y1, y2, y3, y4, y5, y6, y7, y8, y9, y10⟩ := h2.frozens
  obtain ⟨u0, u1, u2, u3, u4, u5, u6, u7, u8, u9, u10⟩ := h3.cells
  obtain ⟨v0, v1, v2, v3, v4, v5, v6, v7, v8, v9, v10⟩ := h3.frozens
  have hfin : Hid _ := cp_fin (q := .slice yb ps.length yc) h2 h3 h1.out.2.2
  have l0 : w.heap.size + 1 < w3.heap.size := h3.lt
  simp only [Fr.zero] at u0 u1 u2 u3 u4 u5 u6 u7 u8 u9 u10
  clear h2 h3 b1 b2 hI hb2 hs2 hb3 hR hG
  rw [fv_zero] at hW2
  unfold fv at hW2
  rw [hW2] at hrun
  clear hW2
  obtain ⟨xb, xl, xc⟩ := x
  simp only [sv] at hrun z10 ⊢
  replace hrun : Hid _ := hrun
  have HQ : Hid (ps.length = ps.length) := rfl
  unfold fv
  go_enter Try.func11, Try.ntmps11
  go_wp2_with (at_builtin; refine Lib.wpList_append_run _ rfl _ _ _ _ rfl _ _ rfl rfl _ _ hrun.out ?_)
  obtain ⟨q1, q2, q3⟩ := hfin.out
  simp only [sets, fsets, List.foldl_cons, List.foldl_nil] at q1 q2 q3
  refine bodyPost_ret (results_cell_row (p := 2) (ty := 24) rfl _ _ (w.heap.size + 1) 24 (fv f (.slice yb ps.length yc)) (0, 0) _ rfl q1 Try.underlying24 rfl (by kernel_rfl)) rfl ⟨yb, ps.length, yc, rfl, h1.out.1.stays fun k hk _ => ?_, fun k hk => by have := h1.out.2.1 k hk; omega, q2⟩
  have := h1.out.2.1 k hk
  exact q3 k (by omega) (by omega)

/-- a head frame, of any frame -/
def madeF (f : Fr) : Fr :=
  { f with ty := if f.ty % 2 = 1 then 5 else 1, fl := f.fl % 256, st := 1 + f.st % 1048576, data := ⟨#[]⟩, pad := if (bits .and .i64 (f.fl % 256) 8 != 0) = true then f.pad % 256 else 0 }

/-- the last part of made -/
theorem mk_fin {w w3 : World} {f0 : Fr} {p0 q : Value} (f' : Fr) (o : Obj) (b2 : FB w3 (w.heap.size + 1) f0 p0) (hb : Below w.heap.size w w3) :
    FB ((sets w3 (w.heap.size + 1) (fsets f' q)).alloc o) (w.heap.size + 1) f' q ∧ Below w.heap.size w ((sets w3 (w.heap.size + 1) (fsets f' q)).alloc o) ∧
    ∀ k, k ≠ w.heap.size + 1 → k < w3.heap.size → ((sets w3 (w.heap.size + 1) (fsets f' q)).alloc o).heap[k]? = w3.heap[k]? := by
  have hl := b2.lt
  have hs := sets_size (w.heap.size + 1) (fsets f' q) w3
  refine ⟨(FB.sets b2 f' q).below (bel1 _ o), (hb.trans (sets_below _ _ (by omega) _ _)).alloc (by omega) o, fun k h1 h2 => ?_⟩
  rw [heap_al, if_neg (by omega), sets_other _ _ h1]

set_option maxHeartbeats 8000000 in
set_option maxRecDepth 100000 in
theorem made_any (f : Fr) (x : SV) (ps : List (Int × Int)) (w : World) (hI : In EP w (sv x) ps) (hlen : ps.length * 16 ≤ 140737488355328) :
    Calls Try.prog 8 #[.agg (fv f (sv x))] w fun e w' => ∃ y : SV, e = .returned (.agg (fv (madeF f) (sv y))) ∧ R EP w' (sv y) ps ∧ (∀ k, (sv y).ownBlock = some k → w.heap.size ≤ k) ∧ Below w.heap.size w w' := by
  obtain ⟨W2, hW2⟩ : ∃ W2, W2 = (w.alloc (.cells (fv f (sv x)) 24)).alloc (.cells (fv Fr.zero (.slice none 0 0)) 24) := ⟨_, rfl⟩
  have hb2 : Below w.heap.size w W2 := by rw [hW2]; exact bel2 w _ _
  have hs2 : W2.heap.size = w.heap.size + 1 + 1 := by rw [hW2, size_al, size_al]
  obtain ⟨b1, b2⟩ : FB W2 w.heap.size f (sv x) ∧ FB W2 (w.heap.size + 1) Fr.zero (.slice none 0 0) := by rw [hW2]; exact FB.al2 w _ _ _ _
  have hC : Hid (Calls Try.prog 11 #[.agg (fv f (sv x))] W2 fun r w3 => ∃ yb yl yc, r = .returned (.agg (fv f (.slice yb yl yc))) ∧ Hid (R EP w3 (.slice yb yl yc) ps ∧ (∀ k, (Value.slice yb yl yc).ownBlock = some k → w.heap.size + 1 + 1 ≤ k) ∧ Below w.heap.size w w3) ∧ FB w3 w.heap.size f (sv x) ∧ FB w3 (w.heap.size + 1) Fr.zero (.slice none 0 0)) := by
    refine (own_any f x ps W2 (hI.below hb2) hlen).mono ?_
    rintro r w3 ⟨⟨yb, yl, yc⟩, rfl, h1, h2, h3⟩
    exact ⟨yb, yl, yc, rfl, ⟨h1, fun k hk => by have := h2 k hk; omega, hb2.trans (h3.mono (by omega))⟩, b1.below h3, b2.below h3⟩
  clear b1 b2 hI hb2 hs2
  rw [fv_zero] at hW2
  have hW2' := hW2
  unfold fv at hW2'
  rw [hW2'] at hC
  clear hW2' hW2
  obtain ⟨xb, xl, xc⟩ := x
  simp only [sv] at hC ⊢
  have e1 := and1 f.ty
  have e2 := and255 f.fl
  have e3 := and20 f.st
  have e4 := and255 f.pad
  have r3 : 0 ≤ f.st % 1048576 ∧ f.st % 1048576 < 1048576 := by omega
  obtain ⟨b1, hb1⟩ : ∃ b, (f.ty % 2 == 1) = b := ⟨_, rfl⟩
  obtain ⟨b2, hb2⟩ : ∃ b, (bits .and .i64 (f.fl % 256) 8 != 0) = b := ⟨_, rfl⟩
  have hF : Hid (madeF f = { f with ty := if b1 then 5 else 1, fl := f.fl % 256, st := 1 + f.st % 1048576, data := ⟨#[]⟩, pad := if b2 then f.pad % 256 else 0 }) := by
    show _ = _
    unfold madeF
    rw [hb2, ← hb1]
    by_cases h : f.ty % 2 = 1 <;> simp [h]
  obtain ⟨F, hFF⟩ : ∃ F, madeF f = F := ⟨_, rfl⟩
  rw [hFF] at hF ⊢
  clear hFF
  unfold fv at hC ⊢
  cases b1 <;> cases b2
  all_goals
    simp only [if_true, if_false, Bool.false_eq_true] at hF
    go_enter Try.func8, Try.ntmps8
    go_wp2_with fail
    go_at_call 11
    refine hC.out.mono ?_
    rintro e w3 ⟨yb, yl, yc, rfl, h1, h2, h3⟩
    obtain ⟨z0, z1, z2, z3, z4, z5, z6, z7, z8, z9, z10⟩ := h2.cells
    obtain ⟨u0, u1, u2, u3, u4, u5, u6, u7, u8, u9, u10⟩ := h3.cells
    obtain ⟨v0, v1, v2, v3, v4, v5, v6, v7, v8, v9, v10⟩ := h3.frozens
    have hfin : Hid _ := mk_fin (q := .slice yb yl yc) F (.cells (fv F (.slice yb yl yc)) 24) h3 h1.out.2.2
    have l0 : w.heap.size + 1 < w3.heap.size := h3.lt
    have l1 : w.heap.size < w3.heap.size := h2.lt
    simp only [Fr.zero] at u0 u1 u2 u3 u4 u5 u6 u7 u8 u9 u10
    clear h2 h3 hC
    go_wp2_with fail
    obtain ⟨q1, q2, q3⟩ := hfin.out
    obtain rfl := hF.out
    simp only [sets, fsets, fv, List.foldl_cons, List.foldl_nil] at q1 q2 q3
    refine bodyPost_ret (results_cell_row (p := 2) (ty := 24) rfl _ _ (w.heap.size + 1) 24 _ (0, 0) _ rfl q1 Try.underlying24 rfl (by kernel_rfl)) rfl ⟨(yb, yl, yc), rfl, h1.out.1.stays fun k hk hlt => ?_, fun k hk => by have := h1.out.2.1 k hk; omega, q2⟩
    have := h1.out.2.1 k hk
    exact q3 k (by omega) hlt
end Go.Proofs.Ytdgdjanchpfleaa
