/- Whether a frame may be written, and is not too long. -/
import Derived.Test.YtfmljlflnpmceaaGreatDoorVz2
import Derived.Test.YtfmljlflnpmceaaGreatDoorVy
namespace Go.Proofs.YtfmljlflnpmceaaGreatDoor
open Go.RowKit
set_option linter.unusedVariables false
set_option linter.unusedSimpArgs false
/-- how long what is written of a frame is -/
def Fn (f : Fm.Fr) (ps : List (Int × Int)) (n : Option Nat) : Prop := (Fm.Right f ps ∧ n = some (Fm.asmB f ps).size) ∨ (¬ Fm.Right f ps ∧ n = none)
def formC (n : Option Nat) (frm : Int) : Int := n.elim 1 fun n => if 65545 < n then 6 else if frm < (n : Int) - 9 then 6 else 0
theorem field92f (a b c d e f : Value) (W : World) : (Instr.field 92 (.agg #[a, b, c, d, e, f]) 4).run Tryz.prog W = .ok e W := by
  simp [Instr.field, run_underlying Tryz.underlying92, part, Tryz.isAgg2, asAgg]
set_option maxRecDepth 100000 in
set_option maxHeartbeats 8000000 in
theorem form_any (t : Tn) (ps : List (Int × Int)) (n : Option Nat) (a : WA) (x : Wy) (m : Nat) (w : World) (h : WI w a x m) (hg : t.wa = a.g) (hp : Fm.PIn w t.p ps) (hK : Fm.Kinds w) (hw : 2 ≤ w.heap.size) (hl : (Fm.asmB t.f ps).size * 3 + 2000 ≤ 140737488355328) (hn : Fn t.f ps n) :
    Calls Tryz.prog 28 #[.agg (tnv t)] w fun e w' => e = .returned (.int .i64 (formC n x.ac.frm)) ∧ Below w.heap.size w w' := by
  obtain ⟨RR, hRR⟩ : ∃ r, formC n x.ac.frm = r := ⟨_, rfl⟩
  have HF : Hid (formC n x.ac.frm = RR) := hRR
  rw [hRR]
  clear hRR
  obtain ⟨W1, hW1⟩ : ∃ V, w.alloc (.cells (tnv t) 78) = V := ⟨_, rfl⟩
  obtain ⟨b0, hb⟩ : ∃ q, w.heap.size = q := ⟨_, rfl⟩
  have b1 : Below w.heap.size w W1 := by rw [← hW1]; exact bel1 _ _
  have HB1 : Hid (Below w.heap.size w W1) := b1
  have HWr : Hid (Calls Tryz.prog 36 #[.agg (Fm.fv t.f t.p)] W1 fun e w' => ∃ v, e = .returned v ∧ Fm.writeV t.f ps v ∧ Below W1.heap.size W1 w') := Fm.write_in t.f ps t.p W1 (Nat.le_trans hw b1.size) (hK.of_eq (b1.block 1 (by omega))) (hp.below b1) hl
  have HAc : Hid (∀ V, Below w.heap.size w V → Calls Tryz.prog 37 #[.pointer (some ⟨a.b, 0, none⟩)] V fun e w' => e = .returned (.agg x.ac.a) ∧ Below V.heap.size V w') := fun V hV => acked_any V a.b x.cl x.ac a.bv x.wt (h.below hV).bk
  have HC : Hid (∀ V, Below w.heap.size w V → V.cell? ⟨a.g, 7, none⟩ = some (.pointer (some ⟨a.b, 0, none⟩))) := fun V hV => (h.below hV).cells.2.2.2.2.2.2.2.1
  have HN : Hid (Fn t.f ps n) := hn
  have hb0 : W1.heap[b0]? = some (.cells (tnv t) 78 (0, 0)) := by rw [← hW1, ← hb, heap_al, if_pos rfl]
  obtain ⟨k1, k2, k3, k4, k5, k6, k7, k8, k9, k10, k11⟩ := tncells hb0
  have HT : Hid (∀ V, Below W1.heap.size W1 V → V.cell? ⟨b0, 13, none⟩ = some (.pointer (some ⟨t.wa, 0, none⟩))) := fun V hV => cell_blk ((hV.block _ (heap_lt hb0)).trans hb0) 13
  clear h hp hK hw hl hn b1 hb0
  obtain ⟨lk, ⟨ty, fl, st, da, pa, de, ex, wt, co, la⟩, p, s, wa, bk⟩ := t
  simp only at hg HT k1 k2 k3 k4 k5 k6 k7 k8 k9 k10 k11
  subst hg
  simp only [tnv, Fm.fv] at hW1 HWr ⊢
  go_enter Tryz.func28, Tryz.ntmps28
  go_wp2_with fail
  try rw [hW1]
  try rw [hb]
  clear hW1 hb k1 k2 k3 k4 k5 k6 k7 k8 k9 k10 k11
  go_at_call 36
  refine HWr.out.mono ?_
  rintro e V ⟨v, rfl, hv, bV⟩
  have HBV : Hid (Below w.heap.size w V) := HB1.out.trans (bV.mono HB1.out.size)
  have d13 := HT.out V bV
  have d7 := HC.out V HBV.out
  obtain ⟨v1, v2, v3⟩ := hv
  rcases HN.out with ⟨hR, rfl⟩ | ⟨hR, rfl⟩
  · by_cases hs : 65545 < (Fm.asmB ⟨ty, fl, st, da, pa, de, ex, wt, co, la⟩ ps).size
    · rw [v2 hR hs]
      clear v1 v2 v3 bV
      have e : formC (some (Fm.asmB ⟨ty, fl, st, da, pa, de, ex, wt, co, la⟩ ps).size) x.ac.frm = 6 := by unfold formC; simp [hs]
      rw [e] at HF
      go_wp2_with fail
      go_ret
      exact ⟨by rw [← HF.out]; rfl, HBV.out⟩
    · rw [v1 hR (by omega)]
      obtain ⟨by_, hby⟩ : ∃ y, Fm.asmB ⟨ty, fl, st, da, pa, de, ex, wt, co, la⟩ ps = y := ⟨_, rfl⟩
      rw [hby] at hs HF ⊢
      clear v1 v2 v3 bV hby
      obtain ⟨⟨q1, q2, q3, q4, fr, q6⟩, hq⟩ : ∃ q : St, x.ac = q := ⟨_, rfl⟩
      rw [hq] at HAc HF
      have hfl := fun W => field92f (.int .i64 q1) (.int .i64 q2) (.int .i64 q3) (.int .i64 q4) (.int .i64 fr) (.int .i64 q6) W
      have h0 : 0 ≤ (by_.size : Int) := by omega
      have h1 : (by_.size : Int) ≤ 65545 := by omega
      go_wp2_with fail
      go_at_call 37
      refine (HAc.out V HBV.out).mono ?_
      rintro e V2 ⟨rfl, b2⟩
      have HB2 : Hid (Below w.heap.size w V2) := HBV.out.trans (b2.mono HBV.out.size)
      clear b2 HAc d13 d7 hq
      simp only [St.a]
      by_cases hc : fr < (by_.size : Int) - 9
      · have e : formC (some by_.size) fr = 6 := by unfold formC; simp [hs, hc]
        rw [e] at HF
        go_wp2_with fail
        go_ret
        exact ⟨by rw [← HF.out]; rfl, HB2.out⟩
      · have e : formC (some by_.size) fr = 0 := by unfold formC; simp [hs, hc]
        rw [e] at HF
        go_wp2_with fail
        go_ret
        exact ⟨by rw [← HF.out]; rfl, HB2.out⟩
  · rw [v3 hR]
    clear v1 v2 v3 bV
    have e : formC none x.ac.frm = 1 := rfl
    rw [e] at HF
    go_wp2_with fail
    go_ret
    exact ⟨by rw [← HF.out]; rfl, HBV.out⟩
end Go.Proofs.YtfmljlflnpmceaaGreatDoor
