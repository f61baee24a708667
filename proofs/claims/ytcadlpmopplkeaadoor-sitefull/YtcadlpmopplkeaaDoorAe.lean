/- ReadResponse. -/
import Derived.Test.YtcadlpmopplkeaaDoorAd
namespace Go.Proofs.YtcadlpmopplkeaaDoor
open Go.RowKit Go.Maps
set_option linter.unusedVariables false
set_option linter.unusedSimpArgs false

/-- a response's cells -/
def rsv (n : Int) (f : Value) (b : ByteArray) : Array Value := #[.int .i64 n, f, .string b]
def RsB (w : World) (g : Nat) (n : Int) (f : Value) (b : ByteArray) : Prop := w.heap[g]? = some (.cells (rsv n f b) 37 (0, 0))
theorem rs_sets {w : World} {g : Nat} {n : Int} {f : Value} {b : ByteArray} (h : RsB w g n f b) (n' : Int) (f' : Value) (b' : ByteArray) :
    RsB (((w.setCell ⟨g, 0, none⟩ (.int .i64 n')).setCell ⟨g, 1, none⟩ f').setCell ⟨g, 2, none⟩ (.string b')) g n' f' b' := by
  unfold RsB
  rw [setCell_block _ _ _ _ _ _ _ (setCell_block _ _ _ _ _ _ _ (setCell_block _ _ _ _ _ _ _ h))]
  simp only [rsv, List.setIfInBounds_toArray, List.set_cons_zero, List.set_cons_succ]
theorem rs_other (w : World) (g k : Nat) (hk : k ≠ g) (v0 v1 v2 : Value) : (((w.setCell ⟨g, 0, none⟩ v0).setCell ⟨g, 1, none⟩ v1).setCell ⟨g, 2, none⟩ v2).heap[k]? = w.heap[k]? := by
  rw [setCell_other _ _ _ _ _ hk, setCell_other _ _ _ _ _ hk, setCell_other _ _ _ _ _ hk]
theorem rs_below (w : World) (g B : Nat) (hB : B ≤ g) (v0 v1 v2 : Value) : Below B w (((w.setCell ⟨g, 0, none⟩ v0).setCell ⟨g, 1, none⟩ v1).setCell ⟨g, 2, none⟩ v2) :=
  (((Below.refl B w).setCell (p := ⟨g, 0, none⟩) hB _).setCell (p := ⟨g, 1, none⟩) hB _).setCell (p := ⟨g, 2, none⟩) hB _

/-- the error that ReadResponse tells -/
def rsE (l : List Fd) : Int :=
  if rdE l resNames ≠ 0 then rdE l resNames else match vals l 1 resNames with | some [s] => if stB s = true then 0 else 131 | _ => 131
def RsPost (l : List Fd) (w : World) (e : Ending) (w' : World) : Prop :=
  ∃ (n : Int) (y : SV), e = .returned (.tuple #[.agg (rsv n (sv y) ⟨#[]⟩), .int .i64 (rsE l)]) ∧ Below w.heap.size w w' ∧
    (rsE l = 0 → (∃ s, vals l 1 resNames = some [s] ∧ stB s = true ∧ n = numL s.data.toList) ∧ R EFd w' (sv y) (l.drop 1) ∧ ∀ k, (sv y).ownBlock = some k → w.heap.size ≤ k) ∧ (rsE l ≠ 0 → n = 0 ∧ y = (none, 0, 0))
theorem vals_one {vs : List ByteArray} (h : vs.length = 1) : ∃ a, vs = [a] := by
  match vs, h with
  | [a], _ => exact ⟨a, rfl⟩

set_option maxHeartbeats 20000000 in
set_option maxRecDepth 100000 in
theorem readResponse_any (s : SV) (l : List Fd) (w : World) (hI : In EFd w (sv s) l) (hz : ∀ f ∈ l, f.n.size ≤ 140737488355328) :
    Calls Tryd.prog 49 #[sv s] w fun e w' => RsPost l w e w' := by
  have hC : Hid (∀ W, Below w.heap.size w W → ∀ t, In ES W (sv t) resNames → Calls Tryd.prog 64 #[sv s, sv t] W fun e w' => RdPost l resNames W e w') := fun W hb t ht => read_any s t l resNames W (hI.below hb) ht (by decide) (by decide) hz (by decide)
  obtain ⟨sb, sl, sc⟩ := s
  simp only [sv] at hC ⊢
  clear hI hz
  go_enter Tryd.func49, Tryd.ntmps49
  go_wp2_with fail
  go_at_call 64
  have b0 := bel2 w (.cells #[.int .i64 0, .slice none 0 0, .string ⟨#[]⟩] 37) (.cells #[.string ⟨#[58, 115, 116, 97, 116, 117, 115]⟩] 9)
  refine (hC.out _ b0 (some ⟨w.heap.size + 1, 0, none⟩, 1, 1) (in_names _ resNames _ _ (fresh2 _ _ _) rfl (by decide))).mono ?_
  rintro e w1 ⟨⟨vb, vl, vc⟩, ⟨pb, pl, pc⟩, rfl, hb, hr⟩
  have Q1 : RsB w1 w.heap.size 0 (.slice none 0 0) ⟨#[]⟩ := by
    refine (hb.block _ (by rw [size_al, size_al]; omega)).trans ?_
    rw [heap_al, if_neg (by rw [size_al]; omega), heap_al, if_pos rfl]
    rfl
  have B1 : Hid (Below w.heap.size w w1) := b0.trans (hb.mono b0.size)
  have hl1 : w.heap.size < w1.heap.size := heap_lt Q1
  have HR : Hid (rdE l resNames = 0 → ∃ vs, vals l 1 resNames = some vs ∧ vs.length = 1 ∧ R ES w1 (.slice vb vl vc) vs ∧ R EFd w1 (.slice pb pl pc) (l.drop 1) ∧ (∀ k, (Value.slice pb pl pc).ownBlock = some k → w.heap.size < k)) := fun h0 => by
    obtain ⟨vs, r1, r2, r3, r4, r5, r6⟩ := hr h0
    exact ⟨vs, r1, r2, r3, r4, fun k hk => by have := r6 k hk; rw [size_al, size_al] at this; omega⟩
  replace Q1 : Hid (RsB w1 w.heap.size 0 (.slice none 0 0) ⟨#[]⟩) := Q1
  have hcl : Hid (∀ W, Below w1.heap.size w1 W → (W.cell? ⟨w.heap.size, 0, none⟩ = some (.int .i64 0) ∧ W.cell? ⟨w.heap.size, 1, none⟩ = some (.slice none 0 0) ∧ W.cell? ⟨w.heap.size, 2, none⟩ = some (.string ⟨#[]⟩)) ∧ W.frozen? ⟨w.heap.size, 0, none⟩ = false ∧ W.frozen? ⟨w.heap.size, 1, none⟩ = false ∧ W.frozen? ⟨w.heap.size, 2, none⟩ = false ∧ w.heap.size < W.heap.size) := fun W hb => by
    have q : RsB W w.heap.size 0 (.slice none 0 0) ⟨#[]⟩ := (hb.block _ hl1).trans Q1.out
    exact ⟨⟨cell_blk q 0, cell_blk q 1, cell_blk q 2⟩, frozen_blk q 0, frozen_blk q 1, frozen_blk q 2, heap_lt q⟩
  simp only [sv]
  clear hC hb hr b0
  obtain ⟨E, hE⟩ : ∃ E, rdE l resNames = E := ⟨_, rfl⟩
  rw [hE] at HR ⊢
  have HE : Hid (rdE l resNames = E) := hE
  clear hE
  have hfin : Hid (∀ w5, Below w1.heap.size w1 w5 → ∀ E', rsE l = E' → E' ≠ 0 → ∀ X, X = (((w5.setCell ⟨w.heap.size, 0, none⟩ (.int .i64 0)).setCell ⟨w.heap.size, 1, none⟩ (.slice none 0 0)).setCell ⟨w.heap.size, 2, none⟩ (.string ⟨#[]⟩)) → RsB X w.heap.size 0 (.slice none 0 0) ⟨#[]⟩ ∧ RsPost l w (.returned (.tuple #[.agg (rsv 0 (.slice none 0 0) ⟨#[]⟩), .int .i64 E'])) X) := fun w5 hb E' hE h0 X hX => by
    subst hX
    refine ⟨rs_sets ((hb.block _ hl1).trans Q1.out) _ _ _, 0, (none, 0, 0), by rw [hE]; rfl, (B1.out.trans (hb.mono B1.out.size)).trans (rs_below _ _ _ (Nat.le_refl _) _ _ _), fun h => absurd (hE.symm.trans h) h0, fun _ => ⟨rfl, rfl⟩⟩
  by_cases h0 : E = 0
  · obtain ⟨vs, r1, r2, r3, r4, r6⟩ := HR.out h0
    obtain ⟨s, rfl⟩ := vals_one r2
    subst h0
    obtain ⟨g, o, c, e1, lg, d⟩ := r3.isIn.get okS 0 (by simp)
    have d0 : w1.cell? ⟨g, o, none⟩ = some (.string s) := by have := d 0 _ rfl; simpa [ES] using this
    injection e1 with e1 e4 e5
    simp only [List.length_cons, List.length_nil, Nat.zero_add] at e4
    subst e1
    subst e4
    subst e5
    have hcap : 1 ≤ vc ∧ vc ≤ 9223372036854775807 := by obtain ⟨_, _, e, q1, q2⟩ := r3.slice; injection e with _ _ e; subst e; exact ⟨q1, q2⟩
    obtain ⟨hcap1, hcap2⟩ := hcap
    have hq : Hid (rsE l = if stB s = true then 0 else 131) := by
      show _ = _
      unfold rsE
      rw [HE.out, if_neg (by simp), r1]
    have c1 : Hid (∀ W, Calls Tryd.prog 65 #[.string s] W fun e w' => e = .returned (.tuple #[.int .i64 (stN s), .bool (stB s)]) ∧ Below W.heap.size W w') := fun W => statusOf_any s W
    have hgood : Hid (∀ w5, Below w1.heap.size w1 w5 → stB s = true → ∀ X, X = (((w5.setCell ⟨w.heap.size, 0, none⟩ (.int .i64 (stN s))).setCell ⟨w.heap.size, 1, none⟩ (.slice pb pl pc)).setCell ⟨w.heap.size, 2, none⟩ (.string ⟨#[]⟩)) → RsB X w.heap.size (stN s) (.slice pb pl pc) ⟨#[]⟩ ∧ RsPost l w (.returned (.tuple #[.agg (rsv (stN s) (.slice pb pl pc) ⟨#[]⟩), .int .i64 0])) X) := fun w5 hb hh X hX => by
      have hq' : rsE l = 0 := by rw [hq.out, hh]; rfl
      subst hX
      refine ⟨rs_sets ((hb.block _ hl1).trans Q1.out) _ _ _, stN s, (pb, pl, pc), by rw [hq']; rfl, (B1.out.trans (hb.mono B1.out.size)).trans (rs_below _ _ _ (Nat.le_refl _) _ _ _), fun _ => ⟨⟨s, r1, hh, by unfold stN; rw [hh, if_pos rfl]⟩, (R.below r4 hb).stays fun k hk _ => rs_other _ _ _ (by have := r6 k hk; omega) _ _ _, fun k hk => Nat.le_of_lt (r6 k hk)⟩, fun h => absurd hq' h⟩
    clear r1 r2 r3 r4 r6 HR d HE
    cases hst : stB s
    · rw [hst] at c1 hq
      simp only [Bool.false_eq_true, if_false] at hq
      have hn0 : stN s = 0 := by unfold stN; rw [hst]; rfl
      rw [hn0] at c1
      clear hst hn0 hgood
      go_wp2_with fail
      go_at_call 65
      refine (c1.out _).mono ?_
      rintro e x1 ⟨rfl, hb⟩
      replace hb : Hid (Below w1.heap.size w1 x1) := hb
      obtain ⟨⟨z0, z1, z2⟩, y0, y1, y2, hlW⟩ := hcl.out _ hb.out
      go_wp2_with fail
      obtain ⟨q1, q2⟩ := hfin.out _ hb.out 131 hq.out (by decide) _ rfl
      refine bodyPost_ret (results_ct (p := 2) (ty := 37) (r := 3) rfl _ _ w.heap.size 37 (rsv 0 (.slice none 0 0) ⟨#[]⟩) (0, 0) _ rfl q1 Tryd.underlying37 rfl (by kernel_rfl)) rfl q2
    · rw [hst] at c1
      have HST : Hid (stB s = true) := hst
      clear hst hfin hq
      obtain ⟨N, hN⟩ : ∃ N, stN s = N := ⟨_, rfl⟩
      rw [hN] at c1 hgood
      clear hN
      go_wp2_with fail
      go_at_call 65
      refine (c1.out _).mono ?_
      rintro e x1 ⟨rfl, hb⟩
      replace hb : Hid (Below w1.heap.size w1 x1) := hb
      obtain ⟨⟨z0, z1, z2⟩, y0, y1, y2, hlW⟩ := hcl.out _ hb.out
      go_wp2_with fail
      obtain ⟨q1, q2⟩ := hgood.out _ hb.out HST.out _ rfl
      refine bodyPost_ret (results_ct (p := 2) (ty := 37) (r := 3) rfl _ _ w.heap.size 37 (rsv N (.slice pb pl pc) ⟨#[]⟩) (0, 0) _ rfl q1 Tryd.underlying37 rfl (by kernel_rfl)) rfl q2
  · have h0' : (E != 0) = true := by simp [h0]
    have hq : Hid (rsE l = E) := by
      show _ = _
      unfold rsE
      rw [HE.out, if_pos h0]
    have H0 : Hid (E ≠ 0) := h0
    obtain ⟨⟨z0, z1, z2⟩, y0, y1, y2, hlW⟩ := hcl.out _ (Below.refl _ w1)
    clear h0 HR
    go_wp2_with fail
    obtain ⟨q1, q2⟩ := hfin.out _ (Below.refl _ w1) E hq.out H0.out _ rfl
    refine bodyPost_ret (results_ct (p := 2) (ty := 37) (r := 3) rfl _ _ w.heap.size 37 (rsv 0 (.slice none 0 0) ⟨#[]⟩) (0, 0) _ rfl q1 Tryd.underlying37 rfl (by kernel_rfl)) rfl q2
end Go.Proofs.YtcadlpmopplkeaaDoor
