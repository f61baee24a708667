/- readFrame. -/
import Derived.Test.YtmhbaaemihljjaaDoorK4
import Derived.Deep.RegionHeld3
import Derived.Deep.Cut
import Derived.Deep.CutRange
namespace Go.Proofs.YtmhbaaemihljjaaDoor
open Go.RowKit
set_option linter.unusedVariables false
set_option linter.unusedSimpArgs false

/-- Behind w the two results lie, and more; all of w is as it was. -/
structure In (w W : World) : Prop where
  bel : Below w.heap.size w W
  two : w.heap.size + 2 ≤ W.heap.size
  z0 : W.heap[w.heap.size]? = some (.cells #[.int .i64 0, .int .i64 0, .int .i64 0, .string ⟨#[]⟩, .int .i64 0, .int .i64 0, .bool false, .int .i64 0, .int .i64 0, .int .i64 0, .slice none 0 0] 28 (0, 0))
  z1 : W.heap[w.heap.size + 1]? = some (.cells #[.int .i64 0, .int .i64 0] 30 (0, 0))
theorem In.alloc {w W : World} (h : In w W) (o : Obj) : In w (W.alloc o) :=
  ⟨h.bel.alloc (by have := h.two; omega) o, by have := h.two; simp; omega, (heap_alloc_old _ _ (by have := h.two; omega)).trans h.z0, (heap_alloc_old _ _ (by have := h.two; omega)).trans h.z1⟩
theorem In.below {w W W' : World} (h : In w W) (hb : Below W.heap.size W W') : In w W' :=
  ⟨h.bel.trans (hb.mono (by have := h.two; omega)), by have := h.two; have := hb.size; omega, (hb.block _ (by have := h.two; omega)).trans h.z0, (hb.block _ (by have := h.two; omega)).trans h.z1⟩
theorem In.sets {w W : World} (h : In w W) (a : Nat) (ha : w.heap.size + 2 ≤ a) (l : List (Nat × Value)) : In w (sets W a l) :=
  ⟨h.bel.trans (sets_below a _ (by omega) l W), by rw [sets_size]; exact h.two, (sets_other _ _ (by omega) _ _).trans h.z0, (sets_other _ _ (by omega) _ _).trans h.z1⟩

theorem PRow.type {w : World} {b : Option Addr} {n c : Nat} {l : List (Int × Int)} (h : PRow w (.slice b n c) l) (k : Nat) (hk : (Value.slice b n c).ownBlock = some k) : ∃ cur, w.heap[k]? = some (.cells cur 49 (0, 0)) := by
  rcases h.2 with ⟨e, _⟩ | ⟨g, cap, cur, e, _, hg, _⟩
  · cases e; simp [Value.ownBlock] at hk
  · cases e
    simp [Value.ownBlock] at hk
    subst hk
    exact ⟨cur, hg⟩

/-- what readFrame leaves -/
def rfS (S : St) : St := { S with wait := S.wait.drop (rdL S.wait S.most).2.1.toNat, code := if (rdL S.wait S.most).2.2.2 = 0 then (rdL S.wait S.most).2.2.1 else S.code }
/-- what is told: the frame, ok, the fault -/
def okR (r : Told) : Bool := decide (0 < r.2.1) && (decide (r.2.2.1 = 0) && decide (r.2.2.2 = 0))

def NPost (w : World) (g : Nat) (v : Value) (fp : Fr × List (Int × Int)) (ok : Bool) (c x : Int) (S' : St) (e : Ending) (w' : World) : Prop :=
  ∃ pb pl pc v', e = .returned (.tuple #[.agg (fv fp.1 (.slice pb pl pc)), .bool ok, .agg #[.int .i64 c, .int .i64 x]]) ∧ PRow w' (.slice pb pl pc) fp.2 ∧ (∀ k, (Value.slice pb pl pc).ownBlock = some k → w.heap.size ≤ k) ∧ Fd w' g v' S' ∧ Kp g w w' ∧ (∀ k, v'.ownBlock = some k → v.ownBlock = some k)

theorem drew_heap (w : World) : w.drew.heap = w.heap := rfl
theorem drew_os (w : World) : w.drew.os = w.os := rfl
theorem drew_tape (w : World) : w.drew.tape = w.tape := rfl
theorem drew_output (w : World) : w.drew.output = w.output := rfl

theorem finF (w W : World) (g : Nat) (v v1 : Value) (S S' : St) (f : Fr) (pb : Option Addr) (pl pc : Nat) (ps : List (Int × Int)) (c x : Int) (gl : List (Nat × Value)) (h : Fd w g v S) (hI : In w W)
    (hfold : gl.foldl (fun c x => c.setIfInBounds x.1 x.2) (fdv S v) = fdv S' v1) (hrow : WRow w v1 S'.wait) (hown : ∀ k, v1.ownBlock = some k → v.ownBlock = some k) (hP : PRow W (.slice pb pl pc) ps)
    (w2 : World) (e1 : w2.heap = (sets (sets (sets W g gl) w.heap.size (fsets f (.slice pb pl pc))) (w.heap.size + 1) [(0, .int .i64 c), (1, .int .i64 x)]).heap) (e2 : w2.os = (sets (sets (sets W g gl) w.heap.size (fsets f (.slice pb pl pc))) (w.heap.size + 1) [(0, .int .i64 c), (1, .int .i64 x)]).os) (e3 : w2.tape = (sets (sets (sets W g gl) w.heap.size (fsets f (.slice pb pl pc))) (w.heap.size + 1) [(0, .int .i64 c), (1, .int .i64 x)]).tape) (e4 : w2.output = (sets (sets (sets W g gl) w.heap.size (fsets f (.slice pb pl pc))) (w.heap.size + 1) [(0, .int .i64 c), (1, .int .i64 x)]).output) :
    w2.heap[w.heap.size]? = some (.cells (fv f (.slice pb pl pc)) 28 (0, 0)) ∧ w2.heap[w.heap.size + 1]? = some (.cells #[.int .i64 c, .int .i64 x] 30 (0, 0)) ∧ PRow w2 (.slice pb pl pc) ps ∧ Fd w2 g v1 S' ∧ Kp g w w2 := by
  have hg := h.lt
  have hblk := (h.below hI.bel).blk
  have hk : ∀ k, k < w.heap.size → k ≠ g → w2.heap[k]? = w.heap[k]? := fun k hk hne => by
    rw [e1, sets_other _ _ (by omega), sets_other _ _ (by omega), sets_other _ _ hne]
    exact hI.bel.block k hk
  have hne : v1.ownBlock ≠ some g := fun e => h.ne (hown g e)
  have hb := ((sets_below g 0 (Nat.zero_le _) gl W).trans (sets_below w.heap.size 0 (Nat.zero_le _) (fsets f (.slice pb pl pc)) _)).trans (sets_below (w.heap.size + 1) 0 (Nat.zero_le _) [(0, .int .i64 c), (1, .int .i64 x)] _)
  replace e2 := e2.trans hb.os
  replace e3 := e3.trans hb.tape
  replace e4 := e4.trans hb.output
  refine ⟨?_, ?_, hP.below fun k hk _ => ?_, ⟨?_, hrow.same fun k hk' => ?_, hne⟩, e2.trans hI.bel.os, e3.trans hI.bel.tape, e4.trans hI.bel.output, by rw [e1, sets_size, sets_size, sets_size]; exact hI.bel.size, hk⟩
  · rw [e1, sets_other _ _ (by omega), sets_block _ _ _ _ _ _ ((sets_other _ _ (by omega) _ _).trans hI.z0)]
    simp only [fsets, fv, List.foldl_cons, List.foldl_nil, List.setIfInBounds_toArray, List.set_cons_zero, List.set_cons_succ]
  · rw [e1, sets_block _ _ _ _ _ _ ((sets_other _ _ (by omega) _ _).trans ((sets_other _ _ (by omega) _ _).trans hI.z1))]
    simp only [List.foldl_cons, List.foldl_nil, List.setIfInBounds_toArray, List.set_cons_zero, List.set_cons_succ]
  · obtain ⟨cur, hc⟩ := hP.type k hk
    have n1 : k ≠ w.heap.size := fun e => by rw [e, hI.z0] at hc; simp at hc
    have n2 : k ≠ w.heap.size + 1 := fun e => by rw [e, hI.z1] at hc; simp at hc
    have n3 : k ≠ g := fun e => by rw [e, hblk] at hc; simp at hc
    rw [e1, sets_other _ _ n2, sets_other _ _ n1, sets_other _ _ n3]
  · rw [e1, sets_other _ _ (by omega), sets_other _ _ (by omega), sets_block _ _ _ _ _ _ hblk, hfold]
  · have := h.row.lt k (hown k hk')
    exact hk k this (by rintro rfl; exact hne hk')

set_option maxRecDepth 100000 in
set_option maxHeartbeats 8000000 in
theorem rframe_any (w : World) (g : Nat) (v : Value) (S : St) (h : Fd w g v S) (hw1 : 1 ≤ w.heap.size) (hK : Kinds w) :
    Calls Tryd.prog 29 #[.pointer (some ⟨g, 0, none⟩)] w fun e w' => NPost w g v (rdL S.wait S.most).1 (okR (rdL S.wait S.most)) (rdL S.wait S.most).2.2.1 (rdL S.wait S.most).2.2.2 (rfS S) e w' := by
  have hrd := rdL_cases S.wait S.most
  have hfi := rdL_first S.wait S.most
  obtain ⟨r, hr⟩ : ∃ r, rdL S.wait S.most = r := ⟨_, rfl⟩
  unfold rfS
  rw [hr] at hrd hfi ⊢
  obtain ⟨⟨f, ps⟩, n, c, x⟩ := r
  obtain ⟨M, hM, hMl⟩ : ∃ M : Nat, n = (M : Int) ∧ M ≤ S.wait.length := by
    rcases hrd with ⟨h1, h2⟩ | ⟨_, _, _, h1⟩ | ⟨_, _, _, _, h2, h1⟩ | ⟨_, _, h2, h1⟩
    · cases h1; exact ⟨0, rfl, Nat.zero_le _⟩
    · cases h1; exact ⟨0, rfl, Nat.zero_le _⟩
    · cases h1; exact ⟨_, rfl, h2⟩
    · cases h1; exact ⟨_, rfl, h2⟩
  subst hM
  have HR : Hid _ := hrd
  have hfirst : Hid (∀ W, In w W → Calls Tryd.prog 36 #[.pointer (some ⟨g, 0, none⟩)] W fun e w' => e = .returned (.string ⟨(firstL S.wait).toArray⟩) ∧ (∀ k, k < W.heap.size → w'.heap[k]? = W.heap[k]?) ∧ In w w') := fun W hI => by
    refine (first_any W g v S (h.below hI.bel)).mono ?_
    rintro e w' ⟨rfl, rfl | rfl⟩
    · exact ⟨rfl, fun _ _ => rfl, hI⟩
    · exact ⟨rfl, fun _ _ => rfl, hI.below (Below.refl _ _).drew⟩
  have hread : Hid (∀ W, In w W → Calls Tryd.prog 35 #[.string ⟨(firstL S.wait).toArray⟩, .int .i64 S.most] W fun e w' => ∃ pb pl pc, e = .returned (.tuple #[.agg #[.int .i64 f.ty, .int .i64 f.fl, .int .i64 f.st, .string f.data, .int .i64 f.pad, .int .i64 f.dep, .bool f.excl, .int .i64 f.wt, .int .i64 f.code, .int .i64 f.last, .slice pb pl pc], .int .i64 (M : Int), .agg #[.int .i64 c, .int .i64 x]]) ∧ PRow w' (.slice pb pl pc) ps ∧ (∀ k, (Value.slice pb pl pc).ownBlock = some k → w.heap.size ≤ k) ∧ (∀ k, k < W.heap.size → w'.heap[k]? = W.heap[k]?) ∧ In w w') := fun W hI => by
    refine (read_any ⟨(firstL S.wait).toArray⟩ S.most W (by have := hI.two; omega) (hK.of_eq (hI.bel.block 0 (by omega)))).mono ?_
    intro e w' hp
    unfold rdL at hfi
    rw [hfi] at hp
    obtain ⟨p, rfl, q1, q2, q3⟩ := hp
    obtain ⟨pb, pc, rfl⟩ := q1.slice
    exact ⟨pb, _, pc, rfl, q1, fun k hk => by have := q2 k hk; have := hI.two; omega, fun k hk => q3.block k hk, hI.below q3⟩
  have hfull : Hid (∀ W, In w W → W.cell? ⟨g, 2, none⟩ = some (.int .i64 S.most) ∧ In w W) := fun W hI => ⟨(h.below hI.bel).cells.2.2.1, hI⟩
  have hst5 : Hid (∀ (W : World) (a5 a7 : Nat) (pb : Option Addr) (pl pc : Nat), W.heap[a5]? = some (.cells #[.int .i64 0, .int .i64 0, .int .i64 0, .string ⟨#[]⟩, .int .i64 0, .int .i64 0, .bool false, .int .i64 0, .int .i64 0, .int .i64 0, .slice none 0 0] 28 (0, 0)) → W.heap[a7]? = some (.cells #[.int .i64 0, .int .i64 0] 30 (0, 0)) → w.heap.size + 2 ≤ a5 → a7 ≠ a5 → PRow W (.slice pb pl pc) ps → In w W →
      FB (sets W a5 (fsets f (.slice pb pl pc))) a5 f (.slice pb pl pc) ∧ (sets W a5 (fsets f (.slice pb pl pc))).heap[a7]? = some (.cells #[.int .i64 0, .int .i64 0] 30 (0, 0)) ∧ PRow (sets W a5 (fsets f (.slice pb pl pc))) (.slice pb pl pc) ps ∧ In w (sets W a5 (fsets f (.slice pb pl pc)))) := by
    intro W a5 a7 pb pl pc h5 h7 hb hne hP hI
    refine ⟨?_, (sets_other _ _ hne _ _).trans h7, hP.below fun k hk _ => sets_other _ _ (fun e => ?_) _ _, hI.sets a5 hb _⟩
    · unfold FB
      rw [sets_block _ _ _ _ _ _ h5]
      simp only [fsets, fv, List.foldl_cons, List.foldl_nil, List.setIfInBounds_toArray, List.set_cons_zero, List.set_cons_succ]
    · obtain ⟨cur, hc⟩ := hP.type k hk
      rw [e, h5] at hc
      simp at hc
  have hst7 : Hid (∀ (W : World) (a5 a7 : Nat) (pb : Option Addr) (pl pc : Nat), FB W a5 f (.slice pb pl pc) → W.heap[a7]? = some (.cells #[.int .i64 0, .int .i64 0] 30 (0, 0)) → w.heap.size + 2 ≤ a7 → a7 ≠ a5 → PRow W (.slice pb pl pc) ps → In w W →
      FB (sets W a7 [(0, .int .i64 c), (1, .int .i64 x)]) a5 f (.slice pb pl pc) ∧ (sets W a7 [(0, .int .i64 c), (1, .int .i64 x)]).heap[a7]? = some (.cells #[.int .i64 c, .int .i64 x] 30 (0, 0)) ∧ PRow (sets W a7 [(0, .int .i64 c), (1, .int .i64 x)]) (.slice pb pl pc) ps ∧ In w (sets W a7 [(0, .int .i64 c), (1, .int .i64 x)])) := by
    intro W a5 a7 pb pl pc h5 h7 hb hne hP hI
    refine ⟨(sets_other _ _ (Ne.symm hne) _ _).trans h5, ?_, hP.below fun k hk _ => sets_other _ _ (fun e => ?_) _ _, hI.sets a7 hb _⟩
    · rw [sets_block _ _ _ _ _ _ h7]
      simp only [List.foldl_cons, List.foldl_nil, List.setIfInBounds_toArray, List.set_cons_zero, List.set_cons_succ]
    · obtain ⟨cur, hc⟩ := hP.type k hk
      rw [e, h7] at hc
      simp at hc
  have HF : Hid _ := h
  clear hrd hfi hr h
  go_enter Tryd.func29, Tryd.ntmps29
  go_wp2_with fail
  go_cut [5, 6, 7] from 8 (fun x5 x6 x7 wx => ∃ (a5 a7 : Nat) (pb : Option Addr) (pl pc : Nat), x5 = .pointer (some ⟨a5, 0, none⟩) ∧ x6 = .int .i64 (M : Int) ∧ x7 = .pointer (some ⟨a7, 0, none⟩) ∧ FB wx a5 f (.slice pb pl pc) ∧ wx.heap[a7]? = some (.cells #[.int .i64 c, .int .i64 x] 30 (0, 0)) ∧ w.heap.size + 2 ≤ a5 ∧ w.heap.size + 2 ≤ a7 ∧ a7 ≠ a5 ∧ PRow wx (.slice pb pl pc) ps ∧ (∀ k, (Value.slice pb pl pc).ownBlock = some k → w.heap.size ≤ k) ∧ In w wx)
  case rest =>
    obtain ⟨a5, a7, pb, pl, pc, rfl, rfl, rfl, hF5, h7, hb5, hb7, hne57, hP, hPn, hI⟩ := hcut
    have h := HF.out
    have hFd := h.below hI.bel
    obtain ⟨c0, c1, c2, c3, c4⟩ := hFd.cells
    obtain ⟨f0, f1, f2, f3, f4⟩ : wc.frozen? ⟨g, 0, none⟩ = false ∧ wc.frozen? ⟨g, 1, none⟩ = false ∧ wc.frozen? ⟨g, 2, none⟩ = false ∧ wc.frozen? ⟨g, 3, none⟩ = false ∧ wc.frozen? ⟨g, 4, none⟩ = false := ⟨hFd.frozen 0, hFd.frozen 1, hFd.frozen 2, hFd.frozen 3, hFd.frozen 4⟩
    obtain ⟨vb, vc, rfl⟩ := h.row.slice
    have hdr := h.row.drop M hMl
    obtain ⟨B1, L1, C1, hvv⟩ : ∃ B1 L1 C1, sliced vb M S.wait.length vc 1 = .slice B1 L1 C1 := ⟨_, _, _, rfl⟩
    have hsl : ∀ W : World, (Instr.slice 34 (.slice vb S.wait.length vc) (some (.int .i64 (M : Int))) none none).run Tryd.prog W = .ok (.slice B1 L1 C1) W := fun W => by
      obtain ⟨i0, hi0, hz0, hz1, hz2⟩ := info_parts info5
      rw [run_slice_l (P := Tryd.prog) W 34 vb S.wait.length vc Tryd.underlying34 .i64 (M : Int) (by omega) (by omega), ← hvv]
      show ((sizeOf 5).run Tryd.prog W).andThen _ = _
      simp [sizeOf, typeInfo, hi0, hz1]
    rw [hvv] at hdr
    have hgB : g < w.heap.size := h.lt
    have n1 : ¬ g = w.heap.size := by omega
    have n2 : ¬ g = w.heap.size + 1 := by omega
    have n3 : ¬ g = a5 := by omega
    have n4 : ¬ g = a7 := by omega
    have n5 : ¬ a5 = w.heap.size := by omega
    have n6 : ¬ a5 = w.heap.size + 1 := by omega
    have n7 : ¬ a7 = w.heap.size := by omega
    have n8 : ¬ a7 = w.heap.size + 1 := by omega
    obtain ⟨d0, d1, d2, d3, d4, d5, d6, d7, d8, d9, d10⟩ := hF5.cells
    have e0 := cell_of_row _ _ 0 _ _ _ h7
    have e1 := cell_of_row _ _ 1 _ _ _ h7
    have hz4' : FB wc w.heap.size Fr.zero (.slice none 0 0) := hI.z0
    obtain ⟨z0, z1, z2, z3, z4, z5, z6, z7, z8, z9, z10⟩ := hz4'.cells
    obtain ⟨y0, y1, y2, y3, y4, y5, y6, y7, y8, y9, y10⟩ := hz4'.frozens
    have q0 := cell_of_row _ _ 0 _ _ _ hI.z1
    have q1 := cell_of_row _ _ 1 _ _ _ hI.z1
    have q2 : wc.frozen? ⟨w.heap.size + 1, 0, none⟩ = false := frozen_row hI.z1 0
    have q3 : wc.frozen? ⟨w.heap.size + 1, 1, none⟩ = false := frozen_row hI.z1 1
    simp only [Fr.zero, List.getElem?_toArray, List.getElem?_cons_succ, List.getElem?_cons_zero] at z0 z1 z2 z3 z4 z5 z6 z7 z8 z9 z10 q0 q1 e0 e1
    have hrow : Hid (WRow w (.slice B1 L1 C1) (S.wait.drop M)) := hdr.1
    have hown : Hid (∀ k, (Value.slice B1 L1 C1).ownBlock = some k → (Value.slice vb S.wait.length vc).ownBlock = some k) := hdr.2
    have hP' : Hid _ := hP
    have hPn' : Hid _ := hPn
    have hI' : Hid _ := hI
    clear hFd hdr hvv hF5 h7 hP hPn hI h hz4' hfirst hread hfull hst5 hst7
    have HFF := HF.out
    by_cases hx : x = 0
    · subst hx
      have hfin0 := finF w wc g (.slice vb S.wait.length vc) (.slice B1 L1 C1) S { S with wait := S.wait.drop M, code := c } f pb pl pc ps c 0 [(1, .slice B1 L1 C1), (3, .int .i64 c), (4, .int .i64 0)] HFF hI'.out rfl hrow.out hown.out hP'.out
      simp only [sets, fsets, List.foldl_cons, List.foldl_nil] at hfin0
      have hfin : Hid _ := hfin0
      clear HFF hfin0
      by_cases hM0 : 0 < M
      · obtain rfl : c = 0 := by
          rcases HR.out with ⟨h1, _⟩ | ⟨_, _, _, h1⟩ | ⟨_, _, _, h2, _, h1⟩ | ⟨_, _, _, h1⟩
          · simp only [Prod.mk.injEq] at h1; exact h1.2.2.1
          · simp only [Prod.mk.injEq] at h1; omega
          · simp only [Prod.mk.injEq] at h1; exact absurd h1.2.2.2.symm h2
          · simp only [Prod.mk.injEq] at h1; exact h1.2.2.1
        have hok : Hid (okR ((f, ps), (M : Int), 0, 0) = true) := by simp [Hid, okR, hM0]
        have hm1 : decide (0 < M) = true := by simpa using hM0
        clear HR hM0
        go_wp2_with fail
        go_region
        all_goals
          go_wp2_with fail
          generalize hW2 : World.drew _ = w2
          obtain ⟨t1, t2, t3, t4, t5⟩ := hfin.out w2 (by rw [← hW2]; exact drew_heap _) (by rw [← hW2]; exact drew_os _) (by rw [← hW2]; exact drew_tape _) (by rw [← hW2]; exact drew_output _)
          clear hW2
          exact bodyPost_ret (results_three (p := 2) (ty := 28) (r := 3) (q := 4) (tz := 30) rfl _ _ w.heap.size (w.heap.size + 1) 28 30 _ _ (0, 0) (0, 0) _ _ rfl t1 Tryd.underlying28 rfl (by kernel_rfl) rfl t2 Tryd.underlying30 rfl (by kernel_rfl)) rfl ⟨pb, pl, pc, _, by rw [hok.out]; rfl, t3, hPn'.out, t4, t5, hown.out⟩
      · have hok : Hid (okR ((f, ps), (M : Int), c, 0) = false) := by simp [Hid, okR, hM0]
        have hm1 : decide (0 < M) = false := by simpa using hM0
        clear HR hM0
        go_wp2_with fail
        go_region
        all_goals
          go_wp2_with fail
          generalize hW2 : World.drew _ = w2
          obtain ⟨t1, t2, t3, t4, t5⟩ := hfin.out w2 (by rw [← hW2]; exact drew_heap _) (by rw [← hW2]; exact drew_os _) (by rw [← hW2]; exact drew_tape _) (by rw [← hW2]; exact drew_output _)
          clear hW2
          exact bodyPost_ret (results_three (p := 2) (ty := 28) (r := 3) (q := 4) (tz := 30) rfl _ _ w.heap.size (w.heap.size + 1) 28 30 _ _ (0, 0) (0, 0) _ _ rfl t1 Tryd.underlying28 rfl (by kernel_rfl) rfl t2 Tryd.underlying30 rfl (by kernel_rfl)) rfl ⟨pb, pl, pc, _, by rw [hok.out]; rfl, t3, hPn'.out, t4, t5, hown.out⟩
    · have hfin0 := finF w wc g (.slice vb S.wait.length vc) (.slice B1 L1 C1) S { S with wait := S.wait.drop M } f pb pl pc ps c x [(1, .slice B1 L1 C1)] HFF hI'.out rfl hrow.out hown.out hP'.out
      simp only [sets, fsets, List.foldl_cons, List.foldl_nil] at hfin0
      have hfin : Hid _ := hfin0
      clear HFF hfin0
      obtain ⟨hM0, hc0⟩ : 0 < M ∧ ¬ c = 0 := by
        rcases HR.out with ⟨h1, _⟩ | ⟨_, _, _, h1⟩ | ⟨_, _, h3, h2, _, h1⟩ | ⟨_, _, _, h1⟩
        · simp only [Prod.mk.injEq] at h1; exact absurd h1.2.2.2 hx
        · simp only [Prod.mk.injEq] at h1; exact absurd h1.2.2.2 hx
        · simp only [Prod.mk.injEq] at h1; exact ⟨by omega, by rw [h1.2.2.1]; exact h3⟩
        · simp only [Prod.mk.injEq] at h1; exact absurd h1.2.2.2 hx
      have hok : Hid (okR ((f, ps), (M : Int), c, x) = false) := by simp [Hid, okR, hx]
      have hm1 : decide (0 < M) = true := by simpa using hM0
      have hxb : (x == 0) = false := by simpa using hx
      clear HR hM0
      go_wp2_with fail
      go_region
      all_goals
        go_wp2_with fail
        generalize hW2 : World.drew _ = w2
        obtain ⟨t1, t2, t3, t4, t5⟩ := hfin.out w2 (by rw [← hW2]; exact drew_heap _) (by rw [← hW2]; exact drew_os _) (by rw [← hW2]; exact drew_tape _) (by rw [← hW2]; exact drew_output _)
        clear hW2
        exact bodyPost_ret (results_three (p := 2) (ty := 28) (r := 3) (q := 4) (tz := 30) rfl _ _ w.heap.size (w.heap.size + 1) 28 30 _ _ (0, 0) (0, 0) _ _ rfl t1 Tryd.underlying28 rfl (by kernel_rfl) rfl t2 Tryd.underlying30 rfl (by kernel_rfl)) rfl ⟨pb, pl, pc, _, by rw [hok.out]; rfl, t3, hPn'.out, t4, t5, hown.out⟩
  have hIW : In w ((w.alloc (.cells #[.int .i64 0, .int .i64 0, .int .i64 0, .string ⟨#[]⟩, .int .i64 0, .int .i64 0, .bool false, .int .i64 0, .int .i64 0, .int .i64 0, .slice none 0 0] 28)).alloc (.cells #[.int .i64 0, .int .i64 0] 30)).drew := by
    refine ⟨(((Below.refl _ w).alloc (Nat.le_refl _) _).alloc (by simp) _).drew, by simp, ?_, ?_⟩
    · simp only [heap_al, heap_dr, size_al, size_dr]
      rw [if_neg (by omega), if_pos trivial]
    · simp only [heap_al, heap_dr, size_al, size_dr]
      rw [if_pos trivial]
  refine wp_region_held_drew (S := fun W => W.cell? ⟨g, 2, none⟩ = some (.int .i64 S.most) ∧ In w W) (by kernel_rfl) (hfull.out _ hIW) (fun hHeld => ?_)
  generalize hWg : World.drew _ = W at hIW hHeld ⊢
  clear hWg
  refine wpAnyH_take (i := 0) (oi := { dst := some 9, op := Op.move (Operand.tmp 0), type := 23, pos := "feed.go:79", after := #[], guard := none }) (v := ?vv1) rfl (by kernel_rfl) (by kernel_rfl) (by kernel_rfl) (fun _ _ _ h => h) (Or.inl ⟨by rfl, ?hy1⟩) (by assumption) ?_
  case hy1 => (intro w hSw; (try dsimp only at hSw); go_simp; all_goals with_reducible rfl)
  try simp only [Act.put, List.setIfInBounds_toArray, List.set_cons_zero, List.set_cons_succ]
  refine wpAnyH_take (i := 2) (oi := { dst := some 11, op := Op.move (Operand.tmp 0), type := 23, pos := "feed.go:79", after := #[], guard := none }) (v := ?vv2) rfl (by kernel_rfl) (by kernel_rfl) (by kernel_rfl) (fun _ _ _ h => h) (Or.inl ⟨by rfl, ?hy2⟩) (by assumption) ?_
  case hy2 => (intro w hSw; (try dsimp only at hSw); go_simp; all_goals with_reducible rfl)
  try simp only [Act.put, List.setIfInBounds_toArray, List.set_cons_zero, List.set_cons_succ]
  refine wpAnyH_take (i := 3) (oi := { dst := some 12, op := Op.nilCheck (Operand.tmp 11), type := 0, pos := "feed.go:79", after := #[{ on := 2, ground := Ground.data }], guard := none }) (v := ?vv3) rfl (by kernel_rfl) (by kernel_rfl) (by kernel_rfl) (fun _ _ _ h => h) (Or.inl ⟨by rfl, ?hy3⟩) (by assumption) ?_
  case hy3 => (intro w hSw; (try dsimp only at hSw); go_simp; all_goals with_reducible rfl)
  try simp only [Act.put, List.setIfInBounds_toArray, List.set_cons_zero, List.set_cons_succ]
  refine wpAnyH_take (i := 4) (oi := { dst := some 13, op := Op.fieldAddr 69 (Operand.tmp 12) 2, type := 0, pos := "feed.go:79", after := #[{ on := 3, ground := Ground.data }], guard := none }) (v := ?vv4) rfl (by kernel_rfl) (by kernel_rfl) (by kernel_rfl) (fun _ _ _ h => h) (Or.inl ⟨by rfl, ?hy4⟩) (by assumption) ?_
  case hy4 => (intro w hSw; (try dsimp only at hSw); go_simp; all_goals with_reducible rfl)
  try simp only [Act.put, List.setIfInBounds_toArray, List.set_cons_zero, List.set_cons_succ]
  refine wpAnyH_take (i := 5) (oi := { dst := some 14, op := Op.load 2 (Operand.tmp 13), type := 2, pos := "feed.go:79", after := #[{ on := 4, ground := Ground.data }], guard := none }) (v := ?vv5) rfl (by kernel_rfl) (by kernel_rfl) (by kernel_rfl) (fun _ _ _ h => h) (Or.inl ⟨by rfl, ?hy5⟩) (by assumption) ?_
  case hy5 => (intro w hSw; (try dsimp only at hSw); go_simp; all_goals with_reducible rfl)
  try simp only [Act.put, List.setIfInBounds_toArray, List.set_cons_zero, List.set_cons_succ]
  refine wpAnyH_ready (rs := [1, 11, 12]) (by kernel_rfl) (by simp) ?_
  refine AllReadyH.cons (o := { dst := some 10, op := Op.call { callee := Callee.value (Operand.func 36), args := #[Operand.tmp 9], argTypes := #[23] }, type := 9, pos := "feed.go:79", after := #[{ on := 0, ground := Ground.data }], guard := none }) rfl (fun K hK => ?_) ?_
  · go_simp
    refine (hfirst.out _ hIW).mono ?_
    rintro e' Wx ⟨rfl, hO, hIWx⟩
    go_wp2_with fail
    refine hK.out _ _ (hfull.out _ hIWx) (fun hHeld => ?_)
    clear hK K hO hIW
    try simp only [Act.put, List.setIfInBounds_toArray, List.set_cons_zero, List.set_cons_succ]
    refine wpAnyH_ready (rs := [6, 11, 12]) (by kernel_rfl) (by simp) ?_
    refine AllReadyH.cons (o := { dst := some 15, op := Op.call { callee := Callee.value (Operand.func 35), args := #[Operand.tmp 10, Operand.tmp 14], argTypes := #[9, 2] }, type := 78, pos := "feed.go:79", after := #[{ on := 1, ground := Ground.data }, { on := 5, ground := Ground.data }, { on := 1, ground := Ground.chain }], guard := none }) rfl (fun K hK => ?_) ?_
    · go_simp
      refine (hread.out _ hIWx).mono ?_
      rintro e' Wxx ⟨pb, pl, pc, rfl, hP, hPn, hO, hIWxx⟩
      go_wp2_with fail
      refine hK.out _ _ (hfull.out _ hIWxx) (fun hHeld => ?_)
      clear hK K hO hIWx
      try simp only [Act.put, List.setIfInBounds_toArray, List.set_cons_zero, List.set_cons_succ]
      refine wpAnyH_take (i := 7) (oi := { dst := some 8, op := Op.move (Operand.tmp 15), type := 78, pos := "feed.go:79", after := #[{ on := 6, ground := Ground.data }], guard := none }) (v := ?vv6) rfl (by kernel_rfl) (by kernel_rfl) (by kernel_rfl) (fun _ _ _ h => h) (Or.inl ⟨by rfl, ?hy6⟩) (by assumption) ?_
      case hy6 => (intro w hSw; (try dsimp only at hSw); go_simp; all_goals with_reducible rfl)
      try simp only [Act.put, List.setIfInBounds_toArray, List.set_cons_zero, List.set_cons_succ]
      refine wpAnyH_take (i := 8) (oi := { dst := some 16, op := Op.extract (Operand.tmp 8) 0, type := 28, pos := "feed.go:79", after := #[{ on := 7, ground := Ground.data }], guard := none }) (v := ?vv7) rfl (by kernel_rfl) (by kernel_rfl) (by kernel_rfl) (fun _ _ _ h => h) (Or.inl ⟨by rfl, ?hy7⟩) (by assumption) ?_
      case hy7 => (intro w hSw; (try dsimp only at hSw); go_simp; all_goals with_reducible rfl)
      try simp only [Act.put, List.setIfInBounds_toArray, List.set_cons_zero, List.set_cons_succ]
      refine wpAnyH_take (i := 9) (oi := { dst := some 17, op := Op.extract (Operand.tmp 8) 1, type := 3, pos := "feed.go:79", after := #[{ on := 7, ground := Ground.data }, { on := 13, ground := Ground.gcOnly Departure.lateStores }], guard := none }) (v := ?vv8) rfl (by kernel_rfl) (by kernel_rfl) (by kernel_rfl) (fun _ _ _ h => h) (Or.inl ⟨by rfl, ?hy8⟩) (by assumption) ?_
      case hy8 => (intro w hSw; (try dsimp only at hSw); go_simp; all_goals with_reducible rfl)
      try simp only [Act.put, List.setIfInBounds_toArray, List.set_cons_zero, List.set_cons_succ]
      refine wpAnyH_take (i := 10) (oi := { dst := some 18, op := Op.extract (Operand.tmp 8) 2, type := 30, pos := "feed.go:79", after := #[{ on := 7, ground := Ground.data }, { on := 14, ground := Ground.gcOnly Departure.lateStores }], guard := none }) (v := ?vv9) rfl (by kernel_rfl) (by kernel_rfl) (by kernel_rfl) (fun _ _ _ h => h) (Or.inl ⟨by rfl, ?hy9⟩) (by assumption) ?_
      case hy9 => (intro w hSw; (try dsimp only at hSw); go_simp; all_goals with_reducible rfl)
      try simp only [Act.put, List.setIfInBounds_toArray, List.set_cons_zero, List.set_cons_succ]
      refine wpAnyH_ready (rs := [11, 12]) (by kernel_rfl) (by simp) ?_
      refine AllReadyH.cons (o := { dst := some 5, op := Op.alloc 28, type := 0, pos := "feed.go:79", after := #[], guard := none }) rfl (fun K hK => ?_) ?_
      · go_simp
        obtain ⟨Wxxx, hV⟩ : ∃ Wxxx, Wxxx = Wxx.alloc (.cells #[.int .i64 0, .int .i64 0, .int .i64 0, .string ⟨#[]⟩, .int .i64 0, .int .i64 0, .bool false, .int .i64 0, .int .i64 0, .int .i64 0, .slice none 0 0] 28) := ⟨_, rfl⟩
        obtain ⟨a5, ha5⟩ : ∃ a5, a5 = Wxx.heap.size := ⟨_, rfl⟩
        have h5 : Wxxx.heap[a5]? = some (.cells #[.int .i64 0, .int .i64 0, .int .i64 0, .string ⟨#[]⟩, .int .i64 0, .int .i64 0, .bool false, .int .i64 0, .int .i64 0, .int .i64 0, .slice none 0 0] 28 (0, 0)) := by rw [hV, ha5]; exact heap_alloc_new _ _
        have hIWxxx : In w Wxxx := by rw [hV]; exact hIWxx.alloc _
        have hO : ∀ k, k < Wxx.heap.size → Wxxx.heap[k]? = Wxx.heap[k]? := fun k hk => by rw [hV]; exact heap_alloc_old _ _ hk
        have hb5 : w.heap.size + 2 ≤ a5 := by rw [ha5]; exact hIWxx.two
        rw [← hV, ← ha5]
        clear hV ha5
        refine hK.out _ _ (hfull.out _ hIWxxx) (fun hHeld => ?_)
        replace hP := hP.below fun k _ hlt => hO k hlt
        clear hK K hO hIWxx
        try simp only [Act.put, List.setIfInBounds_toArray, List.set_cons_zero, List.set_cons_succ]
        refine wpAnyH_ready (rs := [12]) (by kernel_rfl) (by simp) ?_
        refine AllReadyH.cons (o := { dst := some 7, op := Op.alloc 30, type := 0, pos := "feed.go:79", after := #[], guard := none }) rfl (fun K hK => ?_) AllReadyH.nil
        go_simp
        obtain ⟨Wxxxx, hV⟩ : ∃ Wxxxx, Wxxxx = Wxxx.alloc (.cells #[.int .i64 0, .int .i64 0] 30) := ⟨_, rfl⟩
        obtain ⟨a7, ha7⟩ : ∃ a7, a7 = Wxxx.heap.size := ⟨_, rfl⟩
        have h7 : Wxxxx.heap[a7]? = some (.cells #[.int .i64 0, .int .i64 0] 30 (0, 0)) := by rw [hV, ha7]; exact heap_alloc_new _ _
        have hIWxxxx : In w Wxxxx := by rw [hV]; exact hIWxxx.alloc _
        have hO : ∀ k, k < Wxxx.heap.size → Wxxxx.heap[k]? = Wxxx.heap[k]? := fun k hk => by rw [hV]; exact heap_alloc_old _ _ hk
        have hb7 : w.heap.size + 2 ≤ a7 := by rw [ha7]; exact hIWxxx.two
        rw [← hV, ← ha7]
        clear hV ha7
        refine hK.out _ _ (hfull.out _ hIWxxxx) (fun hHeld => ?_)
        replace h5 := (hO _ (Array.getElem?_eq_some_iff.1 h5).1).trans h5
        replace hP := hP.below fun k _ hlt => hO k hlt
        clear hK K hO hIWxxx
        try simp only [Act.put, List.setIfInBounds_toArray, List.set_cons_zero, List.set_cons_succ]
        obtain ⟨z0, z1, z2, z3, z4, z5, z6, z7, z8, z9, z10⟩ := FB.cells (f := Fr.zero) (p := .slice none 0 0) h5
        obtain ⟨y0, y1, y2, y3, y4, y5, y6, y7, y8, y9, y10⟩ := FB.frozens (f := Fr.zero) (p := .slice none 0 0) h5
        simp only [Fr.zero] at z0 z1 z2 z3 z4 z5 z6 z7 z8 z9 z10
        refine wpAnyH_ready (rs := [13]) (by kernel_rfl) (by simp) ?_
        refine AllReadyH.cons (o := { dst := none, op := Op.store 28 (Operand.tmp 5) (Operand.tmp 16), type := 0, pos := "feed.go:79", after := #[{ on := 11, ground := Ground.data }, { on := 8, ground := Ground.data }, { on := 6, ground := Ground.chain }, { on := 0, ground := Ground.phase }, { on := 1, ground := Ground.phase }, { on := 2, ground := Ground.phase }, { on := 3, ground := Ground.phase }, { on := 4, ground := Ground.phase }, { on := 5, ground := Ground.phase }, { on := 6, ground := Ground.phase }, { on := 7, ground := Ground.phase }, { on := 8, ground := Ground.phase }, { on := 9, ground := Ground.textOnly Departure.lateStores }, { on := 10, ground := Ground.textOnly Departure.lateStores }, { on := 11, ground := Ground.phase }, { on := 12, ground := Ground.phase }], guard := none }) rfl (fun K hK => ?_) AllReadyH.nil
        go_simp
        change K _ (sets Wxxxx a5 (fsets f (.slice pb pl pc)))
        have hne57 : a7 ≠ a5 := fun e => by rw [e, h5] at h7; simp at h7
        obtain ⟨x1, x2, x3, x4⟩ := hst5.out Wxxxx a5 a7 pb pl pc h5 h7 hb5 hne57 hP hIWxxxx
        refine hK.out _ _ (hfull.out _ x4) (fun hHeld => ?_)
        clear z0 z1 z2 z3 z4 z5 z6 z7 z8 z9 z10 y0 y1 y2 y3 y4 y5 y6 y7 y8 y9 y10 hK K
        generalize hWn : sets Wxxxx a5 (fsets f (.slice pb pl pc)) = Wn at x1 x2 x3 x4 hHeld ⊢
        clear hWn
        try simp only [Act.put, List.setIfInBounds_toArray, List.set_cons_zero, List.set_cons_succ]
        refine wpAnyH_take (i := 14) (oi := { dst := some 6, op := Op.assign (Operand.tmp 17), type := 3, pos := "feed.go:79", after := #[{ on := 9, ground := Ground.data }, { on := 13, ground := Ground.chain }, { on := 0, ground := Ground.phase }, { on := 1, ground := Ground.phase }, { on := 2, ground := Ground.phase }, { on := 3, ground := Ground.phase }, { on := 4, ground := Ground.phase }, { on := 5, ground := Ground.phase }, { on := 6, ground := Ground.phase }, { on := 7, ground := Ground.phase }, { on := 8, ground := Ground.phase }, { on := 9, ground := Ground.phase }, { on := 10, ground := Ground.textOnly Departure.lateStores }, { on := 11, ground := Ground.phase }, { on := 12, ground := Ground.phase }, { on := 13, ground := Ground.phase }], guard := none }) (v := ?vv10) rfl (by kernel_rfl) (by kernel_rfl) (by kernel_rfl) (fun _ _ _ h => h) (Or.inl ⟨by rfl, ?hy10⟩) (by assumption) ?_
        case hy10 => (intro w hSw; (try dsimp only at hSw); go_simp; all_goals with_reducible rfl)
        try simp only [Act.put, List.setIfInBounds_toArray, List.set_cons_zero, List.set_cons_succ]
        have q0 := cell_of_row _ _ 0 _ _ _ x2
        have q1 := cell_of_row _ _ 1 _ _ _ x2
        have q2 : Wn.frozen? ⟨a7, 0, none⟩ = false := frozen_row x2 0
        have q3 : Wn.frozen? ⟨a7, 1, none⟩ = false := frozen_row x2 1
        simp only [List.getElem?_toArray, List.getElem?_cons_succ, List.getElem?_cons_zero] at q0 q1
        refine wpAnyH_ready (rs := [15]) (by kernel_rfl) (by simp) ?_
        refine AllReadyH.cons (o := { dst := none, op := Op.store 30 (Operand.tmp 7) (Operand.tmp 18), type := 0, pos := "feed.go:79", after := #[{ on := 12, ground := Ground.data }, { on := 10, ground := Ground.data }, { on := 14, ground := Ground.chain }, { on := 0, ground := Ground.phase }, { on := 1, ground := Ground.phase }, { on := 2, ground := Ground.phase }, { on := 3, ground := Ground.phase }, { on := 4, ground := Ground.phase }, { on := 5, ground := Ground.phase }, { on := 6, ground := Ground.phase }, { on := 7, ground := Ground.phase }, { on := 8, ground := Ground.phase }, { on := 9, ground := Ground.phase }, { on := 10, ground := Ground.phase }, { on := 11, ground := Ground.phase }, { on := 12, ground := Ground.phase }, { on := 13, ground := Ground.phase }, { on := 14, ground := Ground.phase }], guard := none }) rfl (fun K hK => ?_) AllReadyH.nil
        go_simp
        change K _ (sets Wn a7 [(0, .int .i64 c), (1, .int .i64 x)])
        obtain ⟨t1, t2, t3, t4⟩ := hst7.out Wn a5 a7 pb pl pc x1 x2 hb7 hne57 x3 x4
        refine hK.out _ _ (hfull.out _ t4) (fun hHeld => ?_)
        clear hK K
        try simp only [Act.put, List.setIfInBounds_toArray, List.set_cons_zero, List.set_cons_succ]
        refine wpAnyH_done (by kernel_rfl) ?_ _
        go_wp2_with fail
        go_meet
        case rel => exact ⟨a5, a7, pb, pl, pc, rfl, rfl, rfl, t1, t2, hb5, hb7, hne57, t3, hPn, t4⟩
      refine AllReadyH.cons (o := { dst := some 7, op := Op.alloc 30, type := 0, pos := "feed.go:79", after := #[], guard := none }) rfl (fun K hK => ?_) AllReadyH.nil
      go_simp
      obtain ⟨Wxxx, hV⟩ : ∃ Wxxx, Wxxx = Wxx.alloc (.cells #[.int .i64 0, .int .i64 0] 30) := ⟨_, rfl⟩
      obtain ⟨a7, ha7⟩ : ∃ a7, a7 = Wxx.heap.size := ⟨_, rfl⟩
      have h7 : Wxxx.heap[a7]? = some (.cells #[.int .i64 0, .int .i64 0] 30 (0, 0)) := by rw [hV, ha7]; exact heap_alloc_new _ _
      have hIWxxx : In w Wxxx := by rw [hV]; exact hIWxx.alloc _
      have hO : ∀ k, k < Wxx.heap.size → Wxxx.heap[k]? = Wxx.heap[k]? := fun k hk => by rw [hV]; exact heap_alloc_old _ _ hk
      have hb7 : w.heap.size + 2 ≤ a7 := by rw [ha7]; exact hIWxx.two
      rw [← hV, ← ha7]
      clear hV ha7
      refine hK.out _ _ (hfull.out _ hIWxxx) (fun hHeld => ?_)
      replace hP := hP.below fun k _ hlt => hO k hlt
      clear hK K hO hIWxx
      try simp only [Act.put, List.setIfInBounds_toArray, List.set_cons_zero, List.set_cons_succ]
      refine wpAnyH_ready (rs := [11]) (by kernel_rfl) (by simp) ?_
      refine AllReadyH.cons (o := { dst := some 5, op := Op.alloc 28, type := 0, pos := "feed.go:79", after := #[], guard := none }) rfl (fun K hK => ?_) AllReadyH.nil
      go_simp
      obtain ⟨Wxxxx, hV⟩ : ∃ Wxxxx, Wxxxx = Wxxx.alloc (.cells #[.int .i64 0, .int .i64 0, .int .i64 0, .string ⟨#[]⟩, .int .i64 0, .int .i64 0, .bool false, .int .i64 0, .int .i64 0, .int .i64 0, .slice none 0 0] 28) := ⟨_, rfl⟩
      obtain ⟨a5, ha5⟩ : ∃ a5, a5 = Wxxx.heap.size := ⟨_, rfl⟩
      have h5 : Wxxxx.heap[a5]? = some (.cells #[.int .i64 0, .int .i64 0, .int .i64 0, .string ⟨#[]⟩, .int .i64 0, .int .i64 0, .bool false, .int .i64 0, .int .i64 0, .int .i64 0, .slice none 0 0] 28 (0, 0)) := by rw [hV, ha5]; exact heap_alloc_new _ _
      have hIWxxxx : In w Wxxxx := by rw [hV]; exact hIWxxx.alloc _
      have hO : ∀ k, k < Wxxx.heap.size → Wxxxx.heap[k]? = Wxxx.heap[k]? := fun k hk => by rw [hV]; exact heap_alloc_old _ _ hk
      have hb5 : w.heap.size + 2 ≤ a5 := by rw [ha5]; exact hIWxxx.two
      rw [← hV, ← ha5]
      clear hV ha5
      refine hK.out _ _ (hfull.out _ hIWxxxx) (fun hHeld => ?_)
      replace h7 := (hO _ (Array.getElem?_eq_some_iff.1 h7).1).trans h7
      replace hP := hP.below fun k _ hlt => hO k hlt
      clear hK K hO hIWxxx
      try simp only [Act.put, List.setIfInBounds_toArray, List.set_cons_zero, List.set_cons_succ]
      obtain ⟨z0, z1, z2, z3, z4, z5, z6, z7, z8, z9, z10⟩ := FB.cells (f := Fr.zero) (p := .slice none 0 0) h5
      obtain ⟨y0, y1, y2, y3, y4, y5, y6, y7, y8, y9, y10⟩ := FB.frozens (f := Fr.zero) (p := .slice none 0 0) h5
      simp only [Fr.zero] at z0 z1 z2 z3 z4 z5 z6 z7 z8 z9 z10
      refine wpAnyH_ready (rs := [13]) (by kernel_rfl) (by simp) ?_
      refine AllReadyH.cons (o := { dst := none, op := Op.store 28 (Operand.tmp 5) (Operand.tmp 16), type := 0, pos := "feed.go:79", after := #[{ on := 11, ground := Ground.data }, { on := 8, ground := Ground.data }, { on := 6, ground := Ground.chain }, { on := 0, ground := Ground.phase }, { on := 1, ground := Ground.phase }, { on := 2, ground := Ground.phase }, { on := 3, ground := Ground.phase }, { on := 4, ground := Ground.phase }, { on := 5, ground := Ground.phase }, { on := 6, ground := Ground.phase }, { on := 7, ground := Ground.phase }, { on := 8, ground := Ground.phase }, { on := 9, ground := Ground.textOnly Departure.lateStores }, { on := 10, ground := Ground.textOnly Departure.lateStores }, { on := 11, ground := Ground.phase }, { on := 12, ground := Ground.phase }], guard := none }) rfl (fun K hK => ?_) AllReadyH.nil
      go_simp
      change K _ (sets Wxxxx a5 (fsets f (.slice pb pl pc)))
      have hne57 : a7 ≠ a5 := fun e => by rw [e, h5] at h7; simp at h7
      obtain ⟨x1, x2, x3, x4⟩ := hst5.out Wxxxx a5 a7 pb pl pc h5 h7 hb5 hne57 hP hIWxxxx
      refine hK.out _ _ (hfull.out _ x4) (fun hHeld => ?_)
      clear z0 z1 z2 z3 z4 z5 z6 z7 z8 z9 z10 y0 y1 y2 y3 y4 y5 y6 y7 y8 y9 y10 hK K
      generalize hWn : sets Wxxxx a5 (fsets f (.slice pb pl pc)) = Wn at x1 x2 x3 x4 hHeld ⊢
      clear hWn
      try simp only [Act.put, List.setIfInBounds_toArray, List.set_cons_zero, List.set_cons_succ]
      refine wpAnyH_take (i := 14) (oi := { dst := some 6, op := Op.assign (Operand.tmp 17), type := 3, pos := "feed.go:79", after := #[{ on := 9, ground := Ground.data }, { on := 13, ground := Ground.chain }, { on := 0, ground := Ground.phase }, { on := 1, ground := Ground.phase }, { on := 2, ground := Ground.phase }, { on := 3, ground := Ground.phase }, { on := 4, ground := Ground.phase }, { on := 5, ground := Ground.phase }, { on := 6, ground := Ground.phase }, { on := 7, ground := Ground.phase }, { on := 8, ground := Ground.phase }, { on := 9, ground := Ground.phase }, { on := 10, ground := Ground.textOnly Departure.lateStores }, { on := 11, ground := Ground.phase }, { on := 12, ground := Ground.phase }, { on := 13, ground := Ground.phase }], guard := none }) (v := ?vv11) rfl (by kernel_rfl) (by kernel_rfl) (by kernel_rfl) (fun _ _ _ h => h) (Or.inl ⟨by rfl, ?hy11⟩) (by assumption) ?_
      case hy11 => (intro w hSw; (try dsimp only at hSw); go_simp; all_goals with_reducible rfl)
      try simp only [Act.put, List.setIfInBounds_toArray, List.set_cons_zero, List.set_cons_succ]
      have q0 := cell_of_row _ _ 0 _ _ _ x2
      have q1 := cell_of_row _ _ 1 _ _ _ x2
      have q2 : Wn.frozen? ⟨a7, 0, none⟩ = false := frozen_row x2 0
      have q3 : Wn.frozen? ⟨a7, 1, none⟩ = false := frozen_row x2 1
      simp only [List.getElem?_toArray, List.getElem?_cons_succ, List.getElem?_cons_zero] at q0 q1
      refine wpAnyH_ready (rs := [15]) (by kernel_rfl) (by simp) ?_
      refine AllReadyH.cons (o := { dst := none, op := Op.store 30 (Operand.tmp 7) (Operand.tmp 18), type := 0, pos := "feed.go:79", after := #[{ on := 12, ground := Ground.data }, { on := 10, ground := Ground.data }, { on := 14, ground := Ground.chain }, { on := 0, ground := Ground.phase }, { on := 1, ground := Ground.phase }, { on := 2, ground := Ground.phase }, { on := 3, ground := Ground.phase }, { on := 4, ground := Ground.phase }, { on := 5, ground := Ground.phase }, { on := 6, ground := Ground.phase }, { on := 7, ground := Ground.phase }, { on := 8, ground := Ground.phase }, { on := 9, ground := Ground.phase }, { on := 10, ground := Ground.phase }, { on := 11, ground := Ground.phase }, { on := 12, ground := Ground.phase }, { on := 13, ground := Ground.phase }, { on := 14, ground := Ground.phase }], guard := none }) rfl (fun K hK => ?_) AllReadyH.nil
      go_simp
      change K _ (sets Wn a7 [(0, .int .i64 c), (1, .int .i64 x)])
      obtain ⟨t1, t2, t3, t4⟩ := hst7.out Wn a5 a7 pb pl pc x1 x2 hb7 hne57 x3 x4
      refine hK.out _ _ (hfull.out _ t4) (fun hHeld => ?_)
      clear hK K
      try simp only [Act.put, List.setIfInBounds_toArray, List.set_cons_zero, List.set_cons_succ]
      refine wpAnyH_done (by kernel_rfl) ?_ _
      go_wp2_with fail
      go_meet
      case rel => exact ⟨a5, a7, pb, pl, pc, rfl, rfl, rfl, t1, t2, hb5, hb7, hne57, t3, hPn, t4⟩
    refine AllReadyH.cons (o := { dst := some 5, op := Op.alloc 28, type := 0, pos := "feed.go:79", after := #[], guard := none }) rfl (fun K hK => ?_) ?_
    · go_simp
      obtain ⟨Wxx, hV⟩ : ∃ Wxx, Wxx = Wx.alloc (.cells #[.int .i64 0, .int .i64 0, .int .i64 0, .string ⟨#[]⟩, .int .i64 0, .int .i64 0, .bool false, .int .i64 0, .int .i64 0, .int .i64 0, .slice none 0 0] 28) := ⟨_, rfl⟩
      obtain ⟨a5, ha5⟩ : ∃ a5, a5 = Wx.heap.size := ⟨_, rfl⟩
      have h5 : Wxx.heap[a5]? = some (.cells #[.int .i64 0, .int .i64 0, .int .i64 0, .string ⟨#[]⟩, .int .i64 0, .int .i64 0, .bool false, .int .i64 0, .int .i64 0, .int .i64 0, .slice none 0 0] 28 (0, 0)) := by rw [hV, ha5]; exact heap_alloc_new _ _
      have hIWxx : In w Wxx := by rw [hV]; exact hIWx.alloc _
      have hO : ∀ k, k < Wx.heap.size → Wxx.heap[k]? = Wx.heap[k]? := fun k hk => by rw [hV]; exact heap_alloc_old _ _ hk
      have hb5 : w.heap.size + 2 ≤ a5 := by rw [ha5]; exact hIWx.two
      rw [← hV, ← ha5]
      clear hV ha5
      refine hK.out _ _ (hfull.out _ hIWxx) (fun hHeld => ?_)
      clear hK K hO hIWx
      try simp only [Act.put, List.setIfInBounds_toArray, List.set_cons_zero, List.set_cons_succ]
      refine wpAnyH_ready (rs := [6, 12]) (by kernel_rfl) (by simp) ?_
      refine AllReadyH.cons (o := { dst := some 15, op := Op.call { callee := Callee.value (Operand.func 35), args := #[Operand.tmp 10, Operand.tmp 14], argTypes := #[9, 2] }, type := 78, pos := "feed.go:79", after := #[{ on := 1, ground := Ground.data }, { on := 5, ground := Ground.data }, { on := 1, ground := Ground.chain }], guard := none }) rfl (fun K hK => ?_) ?_
      · go_simp
        refine (hread.out _ hIWxx).mono ?_
        rintro e' Wxxx ⟨pb, pl, pc, rfl, hP, hPn, hO, hIWxxx⟩
        go_wp2_with fail
        refine hK.out _ _ (hfull.out _ hIWxxx) (fun hHeld => ?_)
        replace h5 := (hO _ (Array.getElem?_eq_some_iff.1 h5).1).trans h5
        clear hK K hO hIWxx
        try simp only [Act.put, List.setIfInBounds_toArray, List.set_cons_zero, List.set_cons_succ]
        refine wpAnyH_take (i := 7) (oi := { dst := some 8, op := Op.move (Operand.tmp 15), type := 78, pos := "feed.go:79", after := #[{ on := 6, ground := Ground.data }], guard := none }) (v := ?vv12) rfl (by kernel_rfl) (by kernel_rfl) (by kernel_rfl) (fun _ _ _ h => h) (Or.inl ⟨by rfl, ?hy12⟩) (by assumption) ?_
        case hy12 => (intro w hSw; (try dsimp only at hSw); go_simp; all_goals with_reducible rfl)
        try simp only [Act.put, List.setIfInBounds_toArray, List.set_cons_zero, List.set_cons_succ]
        refine wpAnyH_take (i := 8) (oi := { dst := some 16, op := Op.extract (Operand.tmp 8) 0, type := 28, pos := "feed.go:79", after := #[{ on := 7, ground := Ground.data }], guard := none }) (v := ?vv13) rfl (by kernel_rfl) (by kernel_rfl) (by kernel_rfl) (fun _ _ _ h => h) (Or.inl ⟨by rfl, ?hy13⟩) (by assumption) ?_
        case hy13 => (intro w hSw; (try dsimp only at hSw); go_simp; all_goals with_reducible rfl)
        try simp only [Act.put, List.setIfInBounds_toArray, List.set_cons_zero, List.set_cons_succ]
        refine wpAnyH_take (i := 9) (oi := { dst := some 17, op := Op.extract (Operand.tmp 8) 1, type := 3, pos := "feed.go:79", after := #[{ on := 7, ground := Ground.data }, { on := 13, ground := Ground.gcOnly Departure.lateStores }], guard := none }) (v := ?vv14) rfl (by kernel_rfl) (by kernel_rfl) (by kernel_rfl) (fun _ _ _ h => h) (Or.inl ⟨by rfl, ?hy14⟩) (by assumption) ?_
        case hy14 => (intro w hSw; (try dsimp only at hSw); go_simp; all_goals with_reducible rfl)
        try simp only [Act.put, List.setIfInBounds_toArray, List.set_cons_zero, List.set_cons_succ]
        refine wpAnyH_take (i := 10) (oi := { dst := some 18, op := Op.extract (Operand.tmp 8) 2, type := 30, pos := "feed.go:79", after := #[{ on := 7, ground := Ground.data }, { on := 14, ground := Ground.gcOnly Departure.lateStores }], guard := none }) (v := ?vv15) rfl (by kernel_rfl) (by kernel_rfl) (by kernel_rfl) (fun _ _ _ h => h) (Or.inl ⟨by rfl, ?hy15⟩) (by assumption) ?_
        case hy15 => (intro w hSw; (try dsimp only at hSw); go_simp; all_goals with_reducible rfl)
        try simp only [Act.put, List.setIfInBounds_toArray, List.set_cons_zero, List.set_cons_succ]
        refine wpAnyH_ready (rs := [12]) (by kernel_rfl) (by simp) ?_
        refine AllReadyH.cons (o := { dst := some 7, op := Op.alloc 30, type := 0, pos := "feed.go:79", after := #[], guard := none }) rfl (fun K hK => ?_) AllReadyH.nil
        go_simp
        obtain ⟨Wxxxx, hV⟩ : ∃ Wxxxx, Wxxxx = Wxxx.alloc (.cells #[.int .i64 0, .int .i64 0] 30) := ⟨_, rfl⟩
        obtain ⟨a7, ha7⟩ : ∃ a7, a7 = Wxxx.heap.size := ⟨_, rfl⟩
        have h7 : Wxxxx.heap[a7]? = some (.cells #[.int .i64 0, .int .i64 0] 30 (0, 0)) := by rw [hV, ha7]; exact heap_alloc_new _ _
        have hIWxxxx : In w Wxxxx := by rw [hV]; exact hIWxxx.alloc _
        have hO : ∀ k, k < Wxxx.heap.size → Wxxxx.heap[k]? = Wxxx.heap[k]? := fun k hk => by rw [hV]; exact heap_alloc_old _ _ hk
        have hb7 : w.heap.size + 2 ≤ a7 := by rw [ha7]; exact hIWxxx.two
        rw [← hV, ← ha7]
        clear hV ha7
        refine hK.out _ _ (hfull.out _ hIWxxxx) (fun hHeld => ?_)
        replace h5 := (hO _ (Array.getElem?_eq_some_iff.1 h5).1).trans h5
        replace hP := hP.below fun k _ hlt => hO k hlt
        clear hK K hO hIWxxx
        try simp only [Act.put, List.setIfInBounds_toArray, List.set_cons_zero, List.set_cons_succ]
        obtain ⟨z0, z1, z2, z3, z4, z5, z6, z7, z8, z9, z10⟩ := FB.cells (f := Fr.zero) (p := .slice none 0 0) h5
        obtain ⟨y0, y1, y2, y3, y4, y5, y6, y7, y8, y9, y10⟩ := FB.frozens (f := Fr.zero) (p := .slice none 0 0) h5
        simp only [Fr.zero] at z0 z1 z2 z3 z4 z5 z6 z7 z8 z9 z10
        refine wpAnyH_ready (rs := [13]) (by kernel_rfl) (by simp) ?_
        refine AllReadyH.cons (o := { dst := none, op := Op.store 28 (Operand.tmp 5) (Operand.tmp 16), type := 0, pos := "feed.go:79", after := #[{ on := 11, ground := Ground.data }, { on := 8, ground := Ground.data }, { on := 6, ground := Ground.chain }, { on := 0, ground := Ground.phase }, { on := 1, ground := Ground.phase }, { on := 2, ground := Ground.phase }, { on := 3, ground := Ground.phase }, { on := 4, ground := Ground.phase }, { on := 5, ground := Ground.phase }, { on := 6, ground := Ground.phase }, { on := 7, ground := Ground.phase }, { on := 8, ground := Ground.phase }, { on := 9, ground := Ground.textOnly Departure.lateStores }, { on := 10, ground := Ground.textOnly Departure.lateStores }, { on := 11, ground := Ground.phase }, { on := 12, ground := Ground.phase }], guard := none }) rfl (fun K hK => ?_) AllReadyH.nil
        go_simp
        change K _ (sets Wxxxx a5 (fsets f (.slice pb pl pc)))
        have hne57 : a7 ≠ a5 := fun e => by rw [e, h5] at h7; simp at h7
        obtain ⟨x1, x2, x3, x4⟩ := hst5.out Wxxxx a5 a7 pb pl pc h5 h7 hb5 hne57 hP hIWxxxx
        refine hK.out _ _ (hfull.out _ x4) (fun hHeld => ?_)
        clear z0 z1 z2 z3 z4 z5 z6 z7 z8 z9 z10 y0 y1 y2 y3 y4 y5 y6 y7 y8 y9 y10 hK K
        generalize hWn : sets Wxxxx a5 (fsets f (.slice pb pl pc)) = Wn at x1 x2 x3 x4 hHeld ⊢
        clear hWn
        try simp only [Act.put, List.setIfInBounds_toArray, List.set_cons_zero, List.set_cons_succ]
        refine wpAnyH_take (i := 14) (oi := { dst := some 6, op := Op.assign (Operand.tmp 17), type := 3, pos := "feed.go:79", after := #[{ on := 9, ground := Ground.data }, { on := 13, ground := Ground.chain }, { on := 0, ground := Ground.phase }, { on := 1, ground := Ground.phase }, { on := 2, ground := Ground.phase }, { on := 3, ground := Ground.phase }, { on := 4, ground := Ground.phase }, { on := 5, ground := Ground.phase }, { on := 6, ground := Ground.phase }, { on := 7, ground := Ground.phase }, { on := 8, ground := Ground.phase }, { on := 9, ground := Ground.phase }, { on := 10, ground := Ground.textOnly Departure.lateStores }, { on := 11, ground := Ground.phase }, { on := 12, ground := Ground.phase }, { on := 13, ground := Ground.phase }], guard := none }) (v := ?vv16) rfl (by kernel_rfl) (by kernel_rfl) (by kernel_rfl) (fun _ _ _ h => h) (Or.inl ⟨by rfl, ?hy16⟩) (by assumption) ?_
        case hy16 => (intro w hSw; (try dsimp only at hSw); go_simp; all_goals with_reducible rfl)
        try simp only [Act.put, List.setIfInBounds_toArray, List.set_cons_zero, List.set_cons_succ]
        have q0 := cell_of_row _ _ 0 _ _ _ x2
        have q1 := cell_of_row _ _ 1 _ _ _ x2
        have q2 : Wn.frozen? ⟨a7, 0, none⟩ = false := frozen_row x2 0
        have q3 : Wn.frozen? ⟨a7, 1, none⟩ = false := frozen_row x2 1
        simp only [List.getElem?_toArray, List.getElem?_cons_succ, List.getElem?_cons_zero] at q0 q1
        refine wpAnyH_ready (rs := [15]) (by kernel_rfl) (by simp) ?_
        refine AllReadyH.cons (o := { dst := none, op := Op.store 30 (Operand.tmp 7) (Operand.tmp 18), type := 0, pos := "feed.go:79", after := #[{ on := 12, ground := Ground.data }, { on := 10, ground := Ground.data }, { on := 14, ground := Ground.chain }, { on := 0, ground := Ground.phase }, { on := 1, ground := Ground.phase }, { on := 2, ground := Ground.phase }, { on := 3, ground := Ground.phase }, { on := 4, ground := Ground.phase }, { on := 5, ground := Ground.phase }, { on := 6, ground := Ground.phase }, { on := 7, ground := Ground.phase }, { on := 8, ground := Ground.phase }, { on := 9, ground := Ground.phase }, { on := 10, ground := Ground.phase }, { on := 11, ground := Ground.phase }, { on := 12, ground := Ground.phase }, { on := 13, ground := Ground.phase }, { on := 14, ground := Ground.phase }], guard := none }) rfl (fun K hK => ?_) AllReadyH.nil
        go_simp
        change K _ (sets Wn a7 [(0, .int .i64 c), (1, .int .i64 x)])
        obtain ⟨t1, t2, t3, t4⟩ := hst7.out Wn a5 a7 pb pl pc x1 x2 hb7 hne57 x3 x4
        refine hK.out _ _ (hfull.out _ t4) (fun hHeld => ?_)
        clear hK K
        try simp only [Act.put, List.setIfInBounds_toArray, List.set_cons_zero, List.set_cons_succ]
        refine wpAnyH_done (by kernel_rfl) ?_ _
        go_wp2_with fail
        go_meet
        case rel => exact ⟨a5, a7, pb, pl, pc, rfl, rfl, rfl, t1, t2, hb5, hb7, hne57, t3, hPn, t4⟩
      refine AllReadyH.cons (o := { dst := some 7, op := Op.alloc 30, type := 0, pos := "feed.go:79", after := #[], guard := none }) rfl (fun K hK => ?_) AllReadyH.nil
      go_simp
      obtain ⟨Wxxx, hV⟩ : ∃ Wxxx, Wxxx = Wxx.alloc (.cells #[.int .i64 0, .int .i64 0] 30) := ⟨_, rfl⟩
      obtain ⟨a7, ha7⟩ : ∃ a7, a7 = Wxx.heap.size := ⟨_, rfl⟩
      have h7 : Wxxx.heap[a7]? = some (.cells #[.int .i64 0, .int .i64 0] 30 (0, 0)) := by rw [hV, ha7]; exact heap_alloc_new _ _
      have hIWxxx : In w Wxxx := by rw [hV]; exact hIWxx.alloc _
      have hO : ∀ k, k < Wxx.heap.size → Wxxx.heap[k]? = Wxx.heap[k]? := fun k hk => by rw [hV]; exact heap_alloc_old _ _ hk
      have hb7 : w.heap.size + 2 ≤ a7 := by rw [ha7]; exact hIWxx.two
      rw [← hV, ← ha7]
      clear hV ha7
      refine hK.out _ _ (hfull.out _ hIWxxx) (fun hHeld => ?_)
      replace h5 := (hO _ (Array.getElem?_eq_some_iff.1 h5).1).trans h5
      clear hK K hO hIWxx
      try simp only [Act.put, List.setIfInBounds_toArray, List.set_cons_zero, List.set_cons_succ]
      refine wpAnyH_ready (rs := [6]) (by kernel_rfl) (by simp) ?_
      refine AllReadyH.cons (o := { dst := some 15, op := Op.call { callee := Callee.value (Operand.func 35), args := #[Operand.tmp 10, Operand.tmp 14], argTypes := #[9, 2] }, type := 78, pos := "feed.go:79", after := #[{ on := 1, ground := Ground.data }, { on := 5, ground := Ground.data }, { on := 1, ground := Ground.chain }], guard := none }) rfl (fun K hK => ?_) AllReadyH.nil
      go_simp
      refine (hread.out _ hIWxxx).mono ?_
      rintro e' Wxxxx ⟨pb, pl, pc, rfl, hP, hPn, hO, hIWxxxx⟩
      go_wp2_with fail
      refine hK.out _ _ (hfull.out _ hIWxxxx) (fun hHeld => ?_)
      replace h5 := (hO _ (Array.getElem?_eq_some_iff.1 h5).1).trans h5
      replace h7 := (hO _ (Array.getElem?_eq_some_iff.1 h7).1).trans h7
      clear hK K hO hIWxxx
      try simp only [Act.put, List.setIfInBounds_toArray, List.set_cons_zero, List.set_cons_succ]
      refine wpAnyH_take (i := 7) (oi := { dst := some 8, op := Op.move (Operand.tmp 15), type := 78, pos := "feed.go:79", after := #[{ on := 6, ground := Ground.data }], guard := none }) (v := ?vv17) rfl (by kernel_rfl) (by kernel_rfl) (by kernel_rfl) (fun _ _ _ h => h) (Or.inl ⟨by rfl, ?hy17⟩) (by assumption) ?_
      case hy17 => (intro w hSw; (try dsimp only at hSw); go_simp; all_goals with_reducible rfl)
      try simp only [Act.put, List.setIfInBounds_toArray, List.set_cons_zero, List.set_cons_succ]
      refine wpAnyH_take (i := 8) (oi := { dst := some 16, op := Op.extract (Operand.tmp 8) 0, type := 28, pos := "feed.go:79", after := #[{ on := 7, ground := Ground.data }], guard := none }) (v := ?vv18) rfl (by kernel_rfl) (by kernel_rfl) (by kernel_rfl) (fun _ _ _ h => h) (Or.inl ⟨by rfl, ?hy18⟩) (by assumption) ?_
      case hy18 => (intro w hSw; (try dsimp only at hSw); go_simp; all_goals with_reducible rfl)
      try simp only [Act.put, List.setIfInBounds_toArray, List.set_cons_zero, List.set_cons_succ]
      refine wpAnyH_take (i := 9) (oi := { dst := some 17, op := Op.extract (Operand.tmp 8) 1, type := 3, pos := "feed.go:79", after := #[{ on := 7, ground := Ground.data }, { on := 13, ground := Ground.gcOnly Departure.lateStores }], guard := none }) (v := ?vv19) rfl (by kernel_rfl) (by kernel_rfl) (by kernel_rfl) (fun _ _ _ h => h) (Or.inl ⟨by rfl, ?hy19⟩) (by assumption) ?_
      case hy19 => (intro w hSw; (try dsimp only at hSw); go_simp; all_goals with_reducible rfl)
      try simp only [Act.put, List.setIfInBounds_toArray, List.set_cons_zero, List.set_cons_succ]
      refine wpAnyH_take (i := 10) (oi := { dst := some 18, op := Op.extract (Operand.tmp 8) 2, type := 30, pos := "feed.go:79", after := #[{ on := 7, ground := Ground.data }, { on := 14, ground := Ground.gcOnly Departure.lateStores }], guard := none }) (v := ?vv20) rfl (by kernel_rfl) (by kernel_rfl) (by kernel_rfl) (fun _ _ _ h => h) (Or.inl ⟨by rfl, ?hy20⟩) (by assumption) ?_
      case hy20 => (intro w hSw; (try dsimp only at hSw); go_simp; all_goals with_reducible rfl)
      try simp only [Act.put, List.setIfInBounds_toArray, List.set_cons_zero, List.set_cons_succ]
      obtain ⟨z0, z1, z2, z3, z4, z5, z6, z7, z8, z9, z10⟩ := FB.cells (f := Fr.zero) (p := .slice none 0 0) h5
      obtain ⟨y0, y1, y2, y3, y4, y5, y6, y7, y8, y9, y10⟩ := FB.frozens (f := Fr.zero) (p := .slice none 0 0) h5
      simp only [Fr.zero] at z0 z1 z2 z3 z4 z5 z6 z7 z8 z9 z10
      refine wpAnyH_ready (rs := [13]) (by kernel_rfl) (by simp) ?_
      refine AllReadyH.cons (o := { dst := none, op := Op.store 28 (Operand.tmp 5) (Operand.tmp 16), type := 0, pos := "feed.go:79", after := #[{ on := 11, ground := Ground.data }, { on := 8, ground := Ground.data }, { on := 6, ground := Ground.chain }, { on := 0, ground := Ground.phase }, { on := 1, ground := Ground.phase }, { on := 2, ground := Ground.phase }, { on := 3, ground := Ground.phase }, { on := 4, ground := Ground.phase }, { on := 5, ground := Ground.phase }, { on := 6, ground := Ground.phase }, { on := 7, ground := Ground.phase }, { on := 8, ground := Ground.phase }, { on := 9, ground := Ground.textOnly Departure.lateStores }, { on := 10, ground := Ground.textOnly Departure.lateStores }, { on := 11, ground := Ground.phase }, { on := 12, ground := Ground.phase }], guard := none }) rfl (fun K hK => ?_) AllReadyH.nil
      go_simp
      change K _ (sets Wxxxx a5 (fsets f (.slice pb pl pc)))
      have hne57 : a7 ≠ a5 := fun e => by rw [e, h5] at h7; simp at h7
      obtain ⟨x1, x2, x3, x4⟩ := hst5.out Wxxxx a5 a7 pb pl pc h5 h7 hb5 hne57 hP hIWxxxx
      refine hK.out _ _ (hfull.out _ x4) (fun hHeld => ?_)
      clear z0 z1 z2 z3 z4 z5 z6 z7 z8 z9 z10 y0 y1 y2 y3 y4 y5 y6 y7 y8 y9 y10 hK K
      generalize hWn : sets Wxxxx a5 (fsets f (.slice pb pl pc)) = Wn at x1 x2 x3 x4 hHeld ⊢
      clear hWn
      try simp only [Act.put, List.setIfInBounds_toArray, List.set_cons_zero, List.set_cons_succ]
      refine wpAnyH_take (i := 14) (oi := { dst := some 6, op := Op.assign (Operand.tmp 17), type := 3, pos := "feed.go:79", after := #[{ on := 9, ground := Ground.data }, { on := 13, ground := Ground.chain }, { on := 0, ground := Ground.phase }, { on := 1, ground := Ground.phase }, { on := 2, ground := Ground.phase }, { on := 3, ground := Ground.phase }, { on := 4, ground := Ground.phase }, { on := 5, ground := Ground.phase }, { on := 6, ground := Ground.phase }, { on := 7, ground := Ground.phase }, { on := 8, ground := Ground.phase }, { on := 9, ground := Ground.phase }, { on := 10, ground := Ground.textOnly Departure.lateStores }, { on := 11, ground := Ground.phase }, { on := 12, ground := Ground.phase }, { on := 13, ground := Ground.phase }], guard := none }) (v := ?vv21) rfl (by kernel_rfl) (by kernel_rfl) (by kernel_rfl) (fun _ _ _ h => h) (Or.inl ⟨by rfl, ?hy21⟩) (by assumption) ?_
      case hy21 => (intro w hSw; (try dsimp only at hSw); go_simp; all_goals with_reducible rfl)
      try simp only [Act.put, List.setIfInBounds_toArray, List.set_cons_zero, List.set_cons_succ]
      have q0 := cell_of_row _ _ 0 _ _ _ x2
      have q1 := cell_of_row _ _ 1 _ _ _ x2
      have q2 : Wn.frozen? ⟨a7, 0, none⟩ = false := frozen_row x2 0
      have q3 : Wn.frozen? ⟨a7, 1, none⟩ = false := frozen_row x2 1
      simp only [List.getElem?_toArray, List.getElem?_cons_succ, List.getElem?_cons_zero] at q0 q1
      refine wpAnyH_ready (rs := [15]) (by kernel_rfl) (by simp) ?_
      refine AllReadyH.cons (o := { dst := none, op := Op.store 30 (Operand.tmp 7) (Operand.tmp 18), type := 0, pos := "feed.go:79", after := #[{ on := 12, ground := Ground.data }, { on := 10, ground := Ground.data }, { on := 14, ground := Ground.chain }, { on := 0, ground := Ground.phase }, { on := 1, ground := Ground.phase }, { on := 2, ground := Ground.phase }, { on := 3, ground := Ground.phase }, { on := 4, ground := Ground.phase }, { on := 5, ground := Ground.phase }, { on := 6, ground := Ground.phase }, { on := 7, ground := Ground.phase }, { on := 8, ground := Ground.phase }, { on := 9, ground := Ground.phase }, { on := 10, ground := Ground.phase }, { on := 11, ground := Ground.phase }, { on := 12, ground := Ground.phase }, { on := 13, ground := Ground.phase }, { on := 14, ground := Ground.phase }], guard := none }) rfl (fun K hK => ?_) AllReadyH.nil
      go_simp
      change K _ (sets Wn a7 [(0, .int .i64 c), (1, .int .i64 x)])
      obtain ⟨t1, t2, t3, t4⟩ := hst7.out Wn a5 a7 pb pl pc x1 x2 hb7 hne57 x3 x4
      refine hK.out _ _ (hfull.out _ t4) (fun hHeld => ?_)
      clear hK K
      try simp only [Act.put, List.setIfInBounds_toArray, List.set_cons_zero, List.set_cons_succ]
      refine wpAnyH_done (by kernel_rfl) ?_ _
      go_wp2_with fail
      go_meet
      case rel => exact ⟨a5, a7, pb, pl, pc, rfl, rfl, rfl, t1, t2, hb5, hb7, hne57, t3, hPn, t4⟩
    refine AllReadyH.cons (o := { dst := some 7, op := Op.alloc 30, type := 0, pos := "feed.go:79", after := #[], guard := none }) rfl (fun K hK => ?_) AllReadyH.nil
    go_simp
    obtain ⟨Wxx, hV⟩ : ∃ Wxx, Wxx = Wx.alloc (.cells #[.int .i64 0, .int .i64 0] 30) := ⟨_, rfl⟩
    obtain ⟨a7, ha7⟩ : ∃ a7, a7 = Wx.heap.size := ⟨_, rfl⟩
    have h7 : Wxx.heap[a7]? = some (.cells #[.int .i64 0, .int .i64 0] 30 (0, 0)) := by rw [hV, ha7]; exact heap_alloc_new _ _
    have hIWxx : In w Wxx := by rw [hV]; exact hIWx.alloc _
    have hO : ∀ k, k < Wx.heap.size → Wxx.heap[k]? = Wx.heap[k]? := fun k hk => by rw [hV]; exact heap_alloc_old _ _ hk
    have hb7 : w.heap.size + 2 ≤ a7 := by rw [ha7]; exact hIWx.two
    rw [← hV, ← ha7]
    clear hV ha7
    refine hK.out _ _ (hfull.out _ hIWxx) (fun hHeld => ?_)
    clear hK K hO hIWx
    try simp only [Act.put, List.setIfInBounds_toArray, List.set_cons_zero, List.set_cons_succ]
    refine wpAnyH_ready (rs := [6, 11]) (by kernel_rfl) (by simp) ?_
    refine AllReadyH.cons (o := { dst := some 15, op := Op.call { callee := Callee.value (Operand.func 35), args := #[Operand.tmp 10, Operand.tmp 14], argTypes := #[9, 2] }, type := 78, pos := "feed.go:79", after := #[{ on := 1, ground := Ground.data }, { on := 5, ground := Ground.data }, { on := 1, ground := Ground.chain }], guard := none }) rfl (fun K hK => ?_) ?_
    · go_simp
      refine (hread.out _ hIWxx).mono ?_
      rintro e' Wxxx ⟨pb, pl, pc, rfl, hP, hPn, hO, hIWxxx⟩
      go_wp2_with fail
      refine hK.out _ _ (hfull.out _ hIWxxx) (fun hHeld => ?_)
      replace h7 := (hO _ (Array.getElem?_eq_some_iff.1 h7).1).trans h7
      clear hK K hO hIWxx
      try simp only [Act.put, List.setIfInBounds_toArray, List.set_cons_zero, List.set_cons_succ]
      refine wpAnyH_take (i := 7) (oi := { dst := some 8, op := Op.move (Operand.tmp 15), type := 78, pos := "feed.go:79", after := #[{ on := 6, ground := Ground.data }], guard := none }) (v := ?vv22) rfl (by kernel_rfl) (by kernel_rfl) (by kernel_rfl) (fun _ _ _ h => h) (Or.inl ⟨by rfl, ?hy22⟩) (by assumption) ?_
      case hy22 => (intro w hSw; (try dsimp only at hSw); go_simp; all_goals with_reducible rfl)
      try simp only [Act.put, List.setIfInBounds_toArray, List.set_cons_zero, List.set_cons_succ]
      refine wpAnyH_take (i := 8) (oi := { dst := some 16, op := Op.extract (Operand.tmp 8) 0, type := 28, pos := "feed.go:79", after := #[{ on := 7, ground := Ground.data }], guard := none }) (v := ?vv23) rfl (by kernel_rfl) (by kernel_rfl) (by kernel_rfl) (fun _ _ _ h => h) (Or.inl ⟨by rfl, ?hy23⟩) (by assumption) ?_
      case hy23 => (intro w hSw; (try dsimp only at hSw); go_simp; all_goals with_reducible rfl)
      try simp only [Act.put, List.setIfInBounds_toArray, List.set_cons_zero, List.set_cons_succ]
      refine wpAnyH_take (i := 9) (oi := { dst := some 17, op := Op.extract (Operand.tmp 8) 1, type := 3, pos := "feed.go:79", after := #[{ on := 7, ground := Ground.data }, { on := 13, ground := Ground.gcOnly Departure.lateStores }], guard := none }) (v := ?vv24) rfl (by kernel_rfl) (by kernel_rfl) (by kernel_rfl) (fun _ _ _ h => h) (Or.inl ⟨by rfl, ?hy24⟩) (by assumption) ?_
      case hy24 => (intro w hSw; (try dsimp only at hSw); go_simp; all_goals with_reducible rfl)
      try simp only [Act.put, List.setIfInBounds_toArray, List.set_cons_zero, List.set_cons_succ]
      refine wpAnyH_take (i := 10) (oi := { dst := some 18, op := Op.extract (Operand.tmp 8) 2, type := 30, pos := "feed.go:79", after := #[{ on := 7, ground := Ground.data }, { on := 14, ground := Ground.gcOnly Departure.lateStores }], guard := none }) (v := ?vv25) rfl (by kernel_rfl) (by kernel_rfl) (by kernel_rfl) (fun _ _ _ h => h) (Or.inl ⟨by rfl, ?hy25⟩) (by assumption) ?_
      case hy25 => (intro w hSw; (try dsimp only at hSw); go_simp; all_goals with_reducible rfl)
      try simp only [Act.put, List.setIfInBounds_toArray, List.set_cons_zero, List.set_cons_succ]
      refine wpAnyH_ready (rs := [11]) (by kernel_rfl) (by simp) ?_
      refine AllReadyH.cons (o := { dst := some 5, op := Op.alloc 28, type := 0, pos := "feed.go:79", after := #[], guard := none }) rfl (fun K hK => ?_) AllReadyH.nil
      go_simp
      obtain ⟨Wxxxx, hV⟩ : ∃ Wxxxx, Wxxxx = Wxxx.alloc (.cells #[.int .i64 0, .int .i64 0, .int .i64 0, .string ⟨#[]⟩, .int .i64 0, .int .i64 0, .bool false, .int .i64 0, .int .i64 0, .int .i64 0, .slice none 0 0] 28) := ⟨_, rfl⟩
      obtain ⟨a5, ha5⟩ : ∃ a5, a5 = Wxxx.heap.size := ⟨_, rfl⟩
      have h5 : Wxxxx.heap[a5]? = some (.cells #[.int .i64 0, .int .i64 0, .int .i64 0, .string ⟨#[]⟩, .int .i64 0, .int .i64 0, .bool false, .int .i64 0, .int .i64 0, .int .i64 0, .slice none 0 0] 28 (0, 0)) := by rw [hV, ha5]; exact heap_alloc_new _ _
      have hIWxxxx : In w Wxxxx := by rw [hV]; exact hIWxxx.alloc _
      have hO : ∀ k, k < Wxxx.heap.size → Wxxxx.heap[k]? = Wxxx.heap[k]? := fun k hk => by rw [hV]; exact heap_alloc_old _ _ hk
      have hb5 : w.heap.size + 2 ≤ a5 := by rw [ha5]; exact hIWxxx.two
      rw [← hV, ← ha5]
      clear hV ha5
      refine hK.out _ _ (hfull.out _ hIWxxxx) (fun hHeld => ?_)
      replace h7 := (hO _ (Array.getElem?_eq_some_iff.1 h7).1).trans h7
      replace hP := hP.below fun k _ hlt => hO k hlt
      clear hK K hO hIWxxx
      try simp only [Act.put, List.setIfInBounds_toArray, List.set_cons_zero, List.set_cons_succ]
      obtain ⟨z0, z1, z2, z3, z4, z5, z6, z7, z8, z9, z10⟩ := FB.cells (f := Fr.zero) (p := .slice none 0 0) h5
      obtain ⟨y0, y1, y2, y3, y4, y5, y6, y7, y8, y9, y10⟩ := FB.frozens (f := Fr.zero) (p := .slice none 0 0) h5
      simp only [Fr.zero] at z0 z1 z2 z3 z4 z5 z6 z7 z8 z9 z10
      refine wpAnyH_ready (rs := [13]) (by kernel_rfl) (by simp) ?_
      refine AllReadyH.cons (o := { dst := none, op := Op.store 28 (Operand.tmp 5) (Operand.tmp 16), type := 0, pos := "feed.go:79", after := #[{ on := 11, ground := Ground.data }, { on := 8, ground := Ground.data }, { on := 6, ground := Ground.chain }, { on := 0, ground := Ground.phase }, { on := 1, ground := Ground.phase }, { on := 2, ground := Ground.phase }, { on := 3, ground := Ground.phase }, { on := 4, ground := Ground.phase }, { on := 5, ground := Ground.phase }, { on := 6, ground := Ground.phase }, { on := 7, ground := Ground.phase }, { on := 8, ground := Ground.phase }, { on := 9, ground := Ground.textOnly Departure.lateStores }, { on := 10, ground := Ground.textOnly Departure.lateStores }, { on := 11, ground := Ground.phase }, { on := 12, ground := Ground.phase }], guard := none }) rfl (fun K hK => ?_) AllReadyH.nil
      go_simp
      change K _ (sets Wxxxx a5 (fsets f (.slice pb pl pc)))
      have hne57 : a7 ≠ a5 := fun e => by rw [e, h5] at h7; simp at h7
      obtain ⟨x1, x2, x3, x4⟩ := hst5.out Wxxxx a5 a7 pb pl pc h5 h7 hb5 hne57 hP hIWxxxx
      refine hK.out _ _ (hfull.out _ x4) (fun hHeld => ?_)
      clear z0 z1 z2 z3 z4 z5 z6 z7 z8 z9 z10 y0 y1 y2 y3 y4 y5 y6 y7 y8 y9 y10 hK K
      generalize hWn : sets Wxxxx a5 (fsets f (.slice pb pl pc)) = Wn at x1 x2 x3 x4 hHeld ⊢
      clear hWn
      try simp only [Act.put, List.setIfInBounds_toArray, List.set_cons_zero, List.set_cons_succ]
      refine wpAnyH_take (i := 14) (oi := { dst := some 6, op := Op.assign (Operand.tmp 17), type := 3, pos := "feed.go:79", after := #[{ on := 9, ground := Ground.data }, { on := 13, ground := Ground.chain }, { on := 0, ground := Ground.phase }, { on := 1, ground := Ground.phase }, { on := 2, ground := Ground.phase }, { on := 3, ground := Ground.phase }, { on := 4, ground := Ground.phase }, { on := 5, ground := Ground.phase }, { on := 6, ground := Ground.phase }, { on := 7, ground := Ground.phase }, { on := 8, ground := Ground.phase }, { on := 9, ground := Ground.phase }, { on := 10, ground := Ground.textOnly Departure.lateStores }, { on := 11, ground := Ground.phase }, { on := 12, ground := Ground.phase }, { on := 13, ground := Ground.phase }], guard := none }) (v := ?vv26) rfl (by kernel_rfl) (by kernel_rfl) (by kernel_rfl) (fun _ _ _ h => h) (Or.inl ⟨by rfl, ?hy26⟩) (by assumption) ?_
      case hy26 => (intro w hSw; (try dsimp only at hSw); go_simp; all_goals with_reducible rfl)
      try simp only [Act.put, List.setIfInBounds_toArray, List.set_cons_zero, List.set_cons_succ]
      have q0 := cell_of_row _ _ 0 _ _ _ x2
      have q1 := cell_of_row _ _ 1 _ _ _ x2
      have q2 : Wn.frozen? ⟨a7, 0, none⟩ = false := frozen_row x2 0
      have q3 : Wn.frozen? ⟨a7, 1, none⟩ = false := frozen_row x2 1
      simp only [List.getElem?_toArray, List.getElem?_cons_succ, List.getElem?_cons_zero] at q0 q1
      refine wpAnyH_ready (rs := [15]) (by kernel_rfl) (by simp) ?_
      refine AllReadyH.cons (o := { dst := none, op := Op.store 30 (Operand.tmp 7) (Operand.tmp 18), type := 0, pos := "feed.go:79", after := #[{ on := 12, ground := Ground.data }, { on := 10, ground := Ground.data }, { on := 14, ground := Ground.chain }, { on := 0, ground := Ground.phase }, { on := 1, ground := Ground.phase }, { on := 2, ground := Ground.phase }, { on := 3, ground := Ground.phase }, { on := 4, ground := Ground.phase }, { on := 5, ground := Ground.phase }, { on := 6, ground := Ground.phase }, { on := 7, ground := Ground.phase }, { on := 8, ground := Ground.phase }, { on := 9, ground := Ground.phase }, { on := 10, ground := Ground.phase }, { on := 11, ground := Ground.phase }, { on := 12, ground := Ground.phase }, { on := 13, ground := Ground.phase }, { on := 14, ground := Ground.phase }], guard := none }) rfl (fun K hK => ?_) AllReadyH.nil
      go_simp
      change K _ (sets Wn a7 [(0, .int .i64 c), (1, .int .i64 x)])
      obtain ⟨t1, t2, t3, t4⟩ := hst7.out Wn a5 a7 pb pl pc x1 x2 hb7 hne57 x3 x4
      refine hK.out _ _ (hfull.out _ t4) (fun hHeld => ?_)
      clear hK K
      try simp only [Act.put, List.setIfInBounds_toArray, List.set_cons_zero, List.set_cons_succ]
      refine wpAnyH_done (by kernel_rfl) ?_ _
      go_wp2_with fail
      go_meet
      case rel => exact ⟨a5, a7, pb, pl, pc, rfl, rfl, rfl, t1, t2, hb5, hb7, hne57, t3, hPn, t4⟩
    refine AllReadyH.cons (o := { dst := some 5, op := Op.alloc 28, type := 0, pos := "feed.go:79", after := #[], guard := none }) rfl (fun K hK => ?_) AllReadyH.nil
    go_simp
    obtain ⟨Wxxx, hV⟩ : ∃ Wxxx, Wxxx = Wxx.alloc (.cells #[.int .i64 0, .int .i64 0, .int .i64 0, .string ⟨#[]⟩, .int .i64 0, .int .i64 0, .bool false, .int .i64 0, .int .i64 0, .int .i64 0, .slice none 0 0] 28) := ⟨_, rfl⟩
    obtain ⟨a5, ha5⟩ : ∃ a5, a5 = Wxx.heap.size := ⟨_, rfl⟩
    have h5 : Wxxx.heap[a5]? = some (.cells #[.int .i64 0, .int .i64 0, .int .i64 0, .string ⟨#[]⟩, .int .i64 0, .int .i64 0, .bool false, .int .i64 0, .int .i64 0, .int .i64 0, .slice none 0 0] 28 (0, 0)) := by rw [hV, ha5]; exact heap_alloc_new _ _
    have hIWxxx : In w Wxxx := by rw [hV]; exact hIWxx.alloc _
    have hO : ∀ k, k < Wxx.heap.size → Wxxx.heap[k]? = Wxx.heap[k]? := fun k hk => by rw [hV]; exact heap_alloc_old _ _ hk
    have hb5 : w.heap.size + 2 ≤ a5 := by rw [ha5]; exact hIWxx.two
    rw [← hV, ← ha5]
    clear hV ha5
    refine hK.out _ _ (hfull.out _ hIWxxx) (fun hHeld => ?_)
    replace h7 := (hO _ (Array.getElem?_eq_some_iff.1 h7).1).trans h7
    clear hK K hO hIWxx
    try simp only [Act.put, List.setIfInBounds_toArray, List.set_cons_zero, List.set_cons_succ]
    refine wpAnyH_ready (rs := [6]) (by kernel_rfl) (by simp) ?_
    refine AllReadyH.cons (o := { dst := some 15, op := Op.call { callee := Callee.value (Operand.func 35), args := #[Operand.tmp 10, Operand.tmp 14], argTypes := #[9, 2] }, type := 78, pos := "feed.go:79", after := #[{ on := 1, ground := Ground.data }, { on := 5, ground := Ground.data }, { on := 1, ground := Ground.chain }], guard := none }) rfl (fun K hK => ?_) AllReadyH.nil
    go_simp
    refine (hread.out _ hIWxxx).mono ?_
    rintro e' Wxxxx ⟨pb, pl, pc, rfl, hP, hPn, hO, hIWxxxx⟩
    go_wp2_with fail
    refine hK.out _ _ (hfull.out _ hIWxxxx) (fun hHeld => ?_)
    replace h5 := (hO _ (Array.getElem?_eq_some_iff.1 h5).1).trans h5
    replace h7 := (hO _ (Array.getElem?_eq_some_iff.1 h7).1).trans h7
    clear hK K hO hIWxxx
    try simp only [Act.put, List.setIfInBounds_toArray, List.set_cons_zero, List.set_cons_succ]
    refine wpAnyH_take (i := 7) (oi := { dst := some 8, op := Op.move (Operand.tmp 15), type := 78, pos := "feed.go:79", after := #[{ on := 6, ground := Ground.data }], guard := none }) (v := ?vv27) rfl (by kernel_rfl) (by kernel_rfl) (by kernel_rfl) (fun _ _ _ h => h) (Or.inl ⟨by rfl, ?hy27⟩) (by assumption) ?_
    case hy27 => (intro w hSw; (try dsimp only at hSw); go_simp; all_goals with_reducible rfl)
    try simp only [Act.put, List.setIfInBounds_toArray, List.set_cons_zero, List.set_cons_succ]
    refine wpAnyH_take (i := 8) (oi := { dst := some 16, op := Op.extract (Operand.tmp 8) 0, type := 28, pos := "feed.go:79", after := #[{ on := 7, ground := Ground.data }], guard := none }) (v := ?vv28) rfl (by kernel_rfl) (by kernel_rfl) (by kernel_rfl) (fun _ _ _ h => h) (Or.inl ⟨by rfl, ?hy28⟩) (by assumption) ?_
    case hy28 => (intro w hSw; (try dsimp only at hSw); go_simp; all_goals with_reducible rfl)
    try simp only [Act.put, List.setIfInBounds_toArray, List.set_cons_zero, List.set_cons_succ]
    refine wpAnyH_take (i := 9) (oi := { dst := some 17, op := Op.extract (Operand.tmp 8) 1, type := 3, pos := "feed.go:79", after := #[{ on := 7, ground := Ground.data }, { on := 13, ground := Ground.gcOnly Departure.lateStores }], guard := none }) (v := ?vv29) rfl (by kernel_rfl) (by kernel_rfl) (by kernel_rfl) (fun _ _ _ h => h) (Or.inl ⟨by rfl, ?hy29⟩) (by assumption) ?_
    case hy29 => (intro w hSw; (try dsimp only at hSw); go_simp; all_goals with_reducible rfl)
    try simp only [Act.put, List.setIfInBounds_toArray, List.set_cons_zero, List.set_cons_succ]
    refine wpAnyH_take (i := 10) (oi := { dst := some 18, op := Op.extract (Operand.tmp 8) 2, type := 30, pos := "feed.go:79", after := #[{ on := 7, ground := Ground.data }, { on := 14, ground := Ground.gcOnly Departure.lateStores }], guard := none }) (v := ?vv30) rfl (by kernel_rfl) (by kernel_rfl) (by kernel_rfl) (fun _ _ _ h => h) (Or.inl ⟨by rfl, ?hy30⟩) (by assumption) ?_
    case hy30 => (intro w hSw; (try dsimp only at hSw); go_simp; all_goals with_reducible rfl)
    try simp only [Act.put, List.setIfInBounds_toArray, List.set_cons_zero, List.set_cons_succ]
    obtain ⟨z0, z1, z2, z3, z4, z5, z6, z7, z8, z9, z10⟩ := FB.cells (f := Fr.zero) (p := .slice none 0 0) h5
    obtain ⟨y0, y1, y2, y3, y4, y5, y6, y7, y8, y9, y10⟩ := FB.frozens (f := Fr.zero) (p := .slice none 0 0) h5
    simp only [Fr.zero] at z0 z1 z2 z3 z4 z5 z6 z7 z8 z9 z10
    refine wpAnyH_ready (rs := [13]) (by kernel_rfl) (by simp) ?_
    refine AllReadyH.cons (o := { dst := none, op := Op.store 28 (Operand.tmp 5) (Operand.tmp 16), type := 0, pos := "feed.go:79", after := #[{ on := 11, ground := Ground.data }, { on := 8, ground := Ground.data }, { on := 6, ground := Ground.chain }, { on := 0, ground := Ground.phase }, { on := 1, ground := Ground.phase }, { on := 2, ground := Ground.phase }, { on := 3, ground := Ground.phase }, { on := 4, ground := Ground.phase }, { on := 5, ground := Ground.phase }, { on := 6, ground := Ground.phase }, { on := 7, ground := Ground.phase }, { on := 8, ground := Ground.phase }, { on := 9, ground := Ground.textOnly Departure.lateStores }, { on := 10, ground := Ground.textOnly Departure.lateStores }, { on := 11, ground := Ground.phase }, { on := 12, ground := Ground.phase }], guard := none }) rfl (fun K hK => ?_) AllReadyH.nil
    go_simp
    change K _ (sets Wxxxx a5 (fsets f (.slice pb pl pc)))
    have hne57 : a7 ≠ a5 := fun e => by rw [e, h5] at h7; simp at h7
    obtain ⟨x1, x2, x3, x4⟩ := hst5.out Wxxxx a5 a7 pb pl pc h5 h7 hb5 hne57 hP hIWxxxx
    refine hK.out _ _ (hfull.out _ x4) (fun hHeld => ?_)
    clear z0 z1 z2 z3 z4 z5 z6 z7 z8 z9 z10 y0 y1 y2 y3 y4 y5 y6 y7 y8 y9 y10 hK K
    generalize hWn : sets Wxxxx a5 (fsets f (.slice pb pl pc)) = Wn at x1 x2 x3 x4 hHeld ⊢
    clear hWn
    try simp only [Act.put, List.setIfInBounds_toArray, List.set_cons_zero, List.set_cons_succ]
    refine wpAnyH_take (i := 14) (oi := { dst := some 6, op := Op.assign (Operand.tmp 17), type := 3, pos := "feed.go:79", after := #[{ on := 9, ground := Ground.data }, { on := 13, ground := Ground.chain }, { on := 0, ground := Ground.phase }, { on := 1, ground := Ground.phase }, { on := 2, ground := Ground.phase }, { on := 3, ground := Ground.phase }, { on := 4, ground := Ground.phase }, { on := 5, ground := Ground.phase }, { on := 6, ground := Ground.phase }, { on := 7, ground := Ground.phase }, { on := 8, ground := Ground.phase }, { on := 9, ground := Ground.phase }, { on := 10, ground := Ground.textOnly Departure.lateStores }, { on := 11, ground := Ground.phase }, { on := 12, ground := Ground.phase }, { on := 13, ground := Ground.phase }], guard := none }) (v := ?vv31) rfl (by kernel_rfl) (by kernel_rfl) (by kernel_rfl) (fun _ _ _ h => h) (Or.inl ⟨by rfl, ?hy31⟩) (by assumption) ?_
    case hy31 => (intro w hSw; (try dsimp only at hSw); go_simp; all_goals with_reducible rfl)
    try simp only [Act.put, List.setIfInBounds_toArray, List.set_cons_zero, List.set_cons_succ]
    have q0 := cell_of_row _ _ 0 _ _ _ x2
    have q1 := cell_of_row _ _ 1 _ _ _ x2
    have q2 : Wn.frozen? ⟨a7, 0, none⟩ = false := frozen_row x2 0
    have q3 : Wn.frozen? ⟨a7, 1, none⟩ = false := frozen_row x2 1
    simp only [List.getElem?_toArray, List.getElem?_cons_succ, List.getElem?_cons_zero] at q0 q1
    refine wpAnyH_ready (rs := [15]) (by kernel_rfl) (by simp) ?_
    refine AllReadyH.cons (o := { dst := none, op := Op.store 30 (Operand.tmp 7) (Operand.tmp 18), type := 0, pos := "feed.go:79", after := #[{ on := 12, ground := Ground.data }, { on := 10, ground := Ground.data }, { on := 14, ground := Ground.chain }, { on := 0, ground := Ground.phase }, { on := 1, ground := Ground.phase }, { on := 2, ground := Ground.phase }, { on := 3, ground := Ground.phase }, { on := 4, ground := Ground.phase }, { on := 5, ground := Ground.phase }, { on := 6, ground := Ground.phase }, { on := 7, ground := Ground.phase }, { on := 8, ground := Ground.phase }, { on := 9, ground := Ground.phase }, { on := 10, ground := Ground.phase }, { on := 11, ground := Ground.phase }, { on := 12, ground := Ground.phase }, { on := 13, ground := Ground.phase }, { on := 14, ground := Ground.phase }], guard := none }) rfl (fun K hK => ?_) AllReadyH.nil
    go_simp
    change K _ (sets Wn a7 [(0, .int .i64 c), (1, .int .i64 x)])
    obtain ⟨t1, t2, t3, t4⟩ := hst7.out Wn a5 a7 pb pl pc x1 x2 hb7 hne57 x3 x4
    refine hK.out _ _ (hfull.out _ t4) (fun hHeld => ?_)
    clear hK K
    try simp only [Act.put, List.setIfInBounds_toArray, List.set_cons_zero, List.set_cons_succ]
    refine wpAnyH_done (by kernel_rfl) ?_ _
    go_wp2_with fail
    go_meet
    case rel => exact ⟨a5, a7, pb, pl, pc, rfl, rfl, rfl, t1, t2, hb5, hb7, hne57, t3, hPn, t4⟩
  refine AllReadyH.cons (o := { dst := some 5, op := Op.alloc 28, type := 0, pos := "feed.go:79", after := #[], guard := none }) rfl (fun K hK => ?_) ?_
  · go_simp
    obtain ⟨Wx, hV⟩ : ∃ Wx, Wx = W.alloc (.cells #[.int .i64 0, .int .i64 0, .int .i64 0, .string ⟨#[]⟩, .int .i64 0, .int .i64 0, .bool false, .int .i64 0, .int .i64 0, .int .i64 0, .slice none 0 0] 28) := ⟨_, rfl⟩
    obtain ⟨a5, ha5⟩ : ∃ a5, a5 = W.heap.size := ⟨_, rfl⟩
    have h5 : Wx.heap[a5]? = some (.cells #[.int .i64 0, .int .i64 0, .int .i64 0, .string ⟨#[]⟩, .int .i64 0, .int .i64 0, .bool false, .int .i64 0, .int .i64 0, .int .i64 0, .slice none 0 0] 28 (0, 0)) := by rw [hV, ha5]; exact heap_alloc_new _ _
    have hIWx : In w Wx := by rw [hV]; exact hIW.alloc _
    have hO : ∀ k, k < W.heap.size → Wx.heap[k]? = W.heap[k]? := fun k hk => by rw [hV]; exact heap_alloc_old _ _ hk
    have hb5 : w.heap.size + 2 ≤ a5 := by rw [ha5]; exact hIW.two
    rw [← hV, ← ha5]
    clear hV ha5
    refine hK.out _ _ (hfull.out _ hIWx) (fun hHeld => ?_)
    clear hK K hO hIW
    try simp only [Act.put, List.setIfInBounds_toArray, List.set_cons_zero, List.set_cons_succ]
    refine wpAnyH_ready (rs := [1, 12]) (by kernel_rfl) (by simp) ?_
    refine AllReadyH.cons (o := { dst := some 10, op := Op.call { callee := Callee.value (Operand.func 36), args := #[Operand.tmp 9], argTypes := #[23] }, type := 9, pos := "feed.go:79", after := #[{ on := 0, ground := Ground.data }], guard := none }) rfl (fun K hK => ?_) ?_
    · go_simp
      refine (hfirst.out _ hIWx).mono ?_
      rintro e' Wxx ⟨rfl, hO, hIWxx⟩
      go_wp2_with fail
      refine hK.out _ _ (hfull.out _ hIWxx) (fun hHeld => ?_)
      replace h5 := (hO _ (Array.getElem?_eq_some_iff.1 h5).1).trans h5
      clear hK K hO hIWx
      try simp only [Act.put, List.setIfInBounds_toArray, List.set_cons_zero, List.set_cons_succ]
      refine wpAnyH_ready (rs := [6, 12]) (by kernel_rfl) (by simp) ?_
      refine AllReadyH.cons (o := { dst := some 15, op := Op.call { callee := Callee.value (Operand.func 35), args := #[Operand.tmp 10, Operand.tmp 14], argTypes := #[9, 2] }, type := 78, pos := "feed.go:79", after := #[{ on := 1, ground := Ground.data }, { on := 5, ground := Ground.data }, { on := 1, ground := Ground.chain }], guard := none }) rfl (fun K hK => ?_) ?_
      · go_simp
        refine (hread.out _ hIWxx).mono ?_
        rintro e' Wxxx ⟨pb, pl, pc, rfl, hP, hPn, hO, hIWxxx⟩
        go_wp2_with fail
        refine hK.out _ _ (hfull.out _ hIWxxx) (fun hHeld => ?_)
        replace h5 := (hO _ (Array.getElem?_eq_some_iff.1 h5).1).trans h5
        clear hK K hO hIWxx
        try simp only [Act.put, List.setIfInBounds_toArray, List.set_cons_zero, List.set_cons_succ]
        refine wpAnyH_take (i := 7) (oi := { dst := some 8, op := Op.move (Operand.tmp 15), type := 78, pos := "feed.go:79", after := #[{ on := 6, ground := Ground.data }], guard := none }) (v := ?vv32) rfl (by kernel_rfl) (by kernel_rfl) (by kernel_rfl) (fun _ _ _ h => h) (Or.inl ⟨by rfl, ?hy32⟩) (by assumption) ?_
        case hy32 => (intro w hSw; (try dsimp only at hSw); go_simp; all_goals with_reducible rfl)
        try simp only [Act.put, List.setIfInBounds_toArray, List.set_cons_zero, List.set_cons_succ]
        refine wpAnyH_take (i := 8) (oi := { dst := some 16, op := Op.extract (Operand.tmp 8) 0, type := 28, pos := "feed.go:79", after := #[{ on := 7, ground := Ground.data }], guard := none }) (v := ?vv33) rfl (by kernel_rfl) (by kernel_rfl) (by kernel_rfl) (fun _ _ _ h => h) (Or.inl ⟨by rfl, ?hy33⟩) (by assumption) ?_
        case hy33 => (intro w hSw; (try dsimp only at hSw); go_simp; all_goals with_reducible rfl)
        try simp only [Act.put, List.setIfInBounds_toArray, List.set_cons_zero, List.set_cons_succ]
        refine wpAnyH_take (i := 9) (oi := { dst := some 17, op := Op.extract (Operand.tmp 8) 1, type := 3, pos := "feed.go:79", after := #[{ on := 7, ground := Ground.data }, { on := 13, ground := Ground.gcOnly Departure.lateStores }], guard := none }) (v := ?vv34) rfl (by kernel_rfl) (by kernel_rfl) (by kernel_rfl) (fun _ _ _ h => h) (Or.inl ⟨by rfl, ?hy34⟩) (by assumption) ?_
        case hy34 => (intro w hSw; (try dsimp only at hSw); go_simp; all_goals with_reducible rfl)
        try simp only [Act.put, List.setIfInBounds_toArray, List.set_cons_zero, List.set_cons_succ]
        refine wpAnyH_take (i := 10) (oi := { dst := some 18, op := Op.extract (Operand.tmp 8) 2, type := 30, pos := "feed.go:79", after := #[{ on := 7, ground := Ground.data }, { on := 14, ground := Ground.gcOnly Departure.lateStores }], guard := none }) (v := ?vv35) rfl (by kernel_rfl) (by kernel_rfl) (by kernel_rfl) (fun _ _ _ h => h) (Or.inl ⟨by rfl, ?hy35⟩) (by assumption) ?_
        case hy35 => (intro w hSw; (try dsimp only at hSw); go_simp; all_goals with_reducible rfl)
        try simp only [Act.put, List.setIfInBounds_toArray, List.set_cons_zero, List.set_cons_succ]
        refine wpAnyH_ready (rs := [12]) (by kernel_rfl) (by simp) ?_
        refine AllReadyH.cons (o := { dst := some 7, op := Op.alloc 30, type := 0, pos := "feed.go:79", after := #[], guard := none }) rfl (fun K hK => ?_) AllReadyH.nil
        go_simp
        obtain ⟨Wxxxx, hV⟩ : ∃ Wxxxx, Wxxxx = Wxxx.alloc (.cells #[.int .i64 0, .int .i64 0] 30) := ⟨_, rfl⟩
        obtain ⟨a7, ha7⟩ : ∃ a7, a7 = Wxxx.heap.size := ⟨_, rfl⟩
        have h7 : Wxxxx.heap[a7]? = some (.cells #[.int .i64 0, .int .i64 0] 30 (0, 0)) := by rw [hV, ha7]; exact heap_alloc_new _ _
        have hIWxxxx : In w Wxxxx := by rw [hV]; exact hIWxxx.alloc _
        have hO : ∀ k, k < Wxxx.heap.size → Wxxxx.heap[k]? = Wxxx.heap[k]? := fun k hk => by rw [hV]; exact heap_alloc_old _ _ hk
        have hb7 : w.heap.size + 2 ≤ a7 := by rw [ha7]; exact hIWxxx.two
        rw [← hV, ← ha7]
        clear hV ha7
        refine hK.out _ _ (hfull.out _ hIWxxxx) (fun hHeld => ?_)
        replace h5 := (hO _ (Array.getElem?_eq_some_iff.1 h5).1).trans h5
        replace hP := hP.below fun k _ hlt => hO k hlt
        clear hK K hO hIWxxx
        try simp only [Act.put, List.setIfInBounds_toArray, List.set_cons_zero, List.set_cons_succ]
        obtain ⟨z0, z1, z2, z3, z4, z5, z6, z7, z8, z9, z10⟩ := FB.cells (f := Fr.zero) (p := .slice none 0 0) h5
        obtain ⟨y0, y1, y2, y3, y4, y5, y6, y7, y8, y9, y10⟩ := FB.frozens (f := Fr.zero) (p := .slice none 0 0) h5
        simp only [Fr.zero] at z0 z1 z2 z3 z4 z5 z6 z7 z8 z9 z10
        refine wpAnyH_ready (rs := [13]) (by kernel_rfl) (by simp) ?_
        refine AllReadyH.cons (o := { dst := none, op := Op.store 28 (Operand.tmp 5) (Operand.tmp 16), type := 0, pos := "feed.go:79", after := #[{ on := 11, ground := Ground.data }, { on := 8, ground := Ground.data }, { on := 6, ground := Ground.chain }, { on := 0, ground := Ground.phase }, { on := 1, ground := Ground.phase }, { on := 2, ground := Ground.phase }, { on := 3, ground := Ground.phase }, { on := 4, ground := Ground.phase }, { on := 5, ground := Ground.phase }, { on := 6, ground := Ground.phase }, { on := 7, ground := Ground.phase }, { on := 8, ground := Ground.phase }, { on := 9, ground := Ground.textOnly Departure.lateStores }, { on := 10, ground := Ground.textOnly Departure.lateStores }, { on := 11, ground := Ground.phase }, { on := 12, ground := Ground.phase }], guard := none }) rfl (fun K hK => ?_) AllReadyH.nil
        go_simp
        change K _ (sets Wxxxx a5 (fsets f (.slice pb pl pc)))
        have hne57 : a7 ≠ a5 := fun e => by rw [e, h5] at h7; simp at h7
        obtain ⟨x1, x2, x3, x4⟩ := hst5.out Wxxxx a5 a7 pb pl pc h5 h7 hb5 hne57 hP hIWxxxx
        refine hK.out _ _ (hfull.out _ x4) (fun hHeld => ?_)
        clear z0 z1 z2 z3 z4 z5 z6 z7 z8 z9 z10 y0 y1 y2 y3 y4 y5 y6 y7 y8 y9 y10 hK K
        generalize hWn : sets Wxxxx a5 (fsets f (.slice pb pl pc)) = Wn at x1 x2 x3 x4 hHeld ⊢
        clear hWn
        try simp only [Act.put, List.setIfInBounds_toArray, List.set_cons_zero, List.set_cons_succ]
        refine wpAnyH_take (i := 14) (oi := { dst := some 6, op := Op.assign (Operand.tmp 17), type := 3, pos := "feed.go:79", after := #[{ on := 9, ground := Ground.data }, { on := 13, ground := Ground.chain }, { on := 0, ground := Ground.phase }, { on := 1, ground := Ground.phase }, { on := 2, ground := Ground.phase }, { on := 3, ground := Ground.phase }, { on := 4, ground := Ground.phase }, { on := 5, ground := Ground.phase }, { on := 6, ground := Ground.phase }, { on := 7, ground := Ground.phase }, { on := 8, ground := Ground.phase }, { on := 9, ground := Ground.phase }, { on := 10, ground := Ground.textOnly Departure.lateStores }, { on := 11, ground := Ground.phase }, { on := 12, ground := Ground.phase }, { on := 13, ground := Ground.phase }], guard := none }) (v := ?vv36) rfl (by kernel_rfl) (by kernel_rfl) (by kernel_rfl) (fun _ _ _ h => h) (Or.inl ⟨by rfl, ?hy36⟩) (by assumption) ?_
        case hy36 => (intro w hSw; (try dsimp only at hSw); go_simp; all_goals with_reducible rfl)
        try simp only [Act.put, List.setIfInBounds_toArray, List.set_cons_zero, List.set_cons_succ]
        have q0 := cell_of_row _ _ 0 _ _ _ x2
        have q1 := cell_of_row _ _ 1 _ _ _ x2
        have q2 : Wn.frozen? ⟨a7, 0, none⟩ = false := frozen_row x2 0
        have q3 : Wn.frozen? ⟨a7, 1, none⟩ = false := frozen_row x2 1
        simp only [List.getElem?_toArray, List.getElem?_cons_succ, List.getElem?_cons_zero] at q0 q1
        refine wpAnyH_ready (rs := [15]) (by kernel_rfl) (by simp) ?_
        refine AllReadyH.cons (o := { dst := none, op := Op.store 30 (Operand.tmp 7) (Operand.tmp 18), type := 0, pos := "feed.go:79", after := #[{ on := 12, ground := Ground.data }, { on := 10, ground := Ground.data }, { on := 14, ground := Ground.chain }, { on := 0, ground := Ground.phase }, { on := 1, ground := Ground.phase }, { on := 2, ground := Ground.phase }, { on := 3, ground := Ground.phase }, { on := 4, ground := Ground.phase }, { on := 5, ground := Ground.phase }, { on := 6, ground := Ground.phase }, { on := 7, ground := Ground.phase }, { on := 8, ground := Ground.phase }, { on := 9, ground := Ground.phase }, { on := 10, ground := Ground.phase }, { on := 11, ground := Ground.phase }, { on := 12, ground := Ground.phase }, { on := 13, ground := Ground.phase }, { on := 14, ground := Ground.phase }], guard := none }) rfl (fun K hK => ?_) AllReadyH.nil
        go_simp
        change K _ (sets Wn a7 [(0, .int .i64 c), (1, .int .i64 x)])
        obtain ⟨t1, t2, t3, t4⟩ := hst7.out Wn a5 a7 pb pl pc x1 x2 hb7 hne57 x3 x4
        refine hK.out _ _ (hfull.out _ t4) (fun hHeld => ?_)
        clear hK K
        try simp only [Act.put, List.setIfInBounds_toArray, List.set_cons_zero, List.set_cons_succ]
        refine wpAnyH_done (by kernel_rfl) ?_ _
        go_wp2_with fail
        go_meet
        case rel => exact ⟨a5, a7, pb, pl, pc, rfl, rfl, rfl, t1, t2, hb5, hb7, hne57, t3, hPn, t4⟩
      refine AllReadyH.cons (o := { dst := some 7, op := Op.alloc 30, type := 0, pos := "feed.go:79", after := #[], guard := none }) rfl (fun K hK => ?_) AllReadyH.nil
      go_simp
      obtain ⟨Wxxx, hV⟩ : ∃ Wxxx, Wxxx = Wxx.alloc (.cells #[.int .i64 0, .int .i64 0] 30) := ⟨_, rfl⟩
      obtain ⟨a7, ha7⟩ : ∃ a7, a7 = Wxx.heap.size := ⟨_, rfl⟩
      have h7 : Wxxx.heap[a7]? = some (.cells #[.int .i64 0, .int .i64 0] 30 (0, 0)) := by rw [hV, ha7]; exact heap_alloc_new _ _
      have hIWxxx : In w Wxxx := by rw [hV]; exact hIWxx.alloc _
      have hO : ∀ k, k < Wxx.heap.size → Wxxx.heap[k]? = Wxx.heap[k]? := fun k hk => by rw [hV]; exact heap_alloc_old _ _ hk
      have hb7 : w.heap.size + 2 ≤ a7 := by rw [ha7]; exact hIWxx.two
      rw [← hV, ← ha7]
      clear hV ha7
      refine hK.out _ _ (hfull.out _ hIWxxx) (fun hHeld => ?_)
      replace h5 := (hO _ (Array.getElem?_eq_some_iff.1 h5).1).trans h5
      clear hK K hO hIWxx
      try simp only [Act.put, List.setIfInBounds_toArray, List.set_cons_zero, List.set_cons_succ]
      refine wpAnyH_ready (rs := [6]) (by kernel_rfl) (by simp) ?_
      refine AllReadyH.cons (o := { dst := some 15, op := Op.call { callee := Callee.value (Operand.func 35), args := #[Operand.tmp 10, Operand.tmp 14], argTypes := #[9, 2] }, type := 78, pos := "feed.go:79", after := #[{ on := 1, ground := Ground.data }, { on := 5, ground := Ground.data }, { on := 1, ground := Ground.chain }], guard := none }) rfl (fun K hK => ?_) AllReadyH.nil
      go_simp
      refine (hread.out _ hIWxxx).mono ?_
      rintro e' Wxxxx ⟨pb, pl, pc, rfl, hP, hPn, hO, hIWxxxx⟩
      go_wp2_with fail
      refine hK.out _ _ (hfull.out _ hIWxxxx) (fun hHeld => ?_)
      replace h5 := (hO _ (Array.getElem?_eq_some_iff.1 h5).1).trans h5
      replace h7 := (hO _ (Array.getElem?_eq_some_iff.1 h7).1).trans h7
      clear hK K hO hIWxxx
      try simp only [Act.put, List.setIfInBounds_toArray, List.set_cons_zero, List.set_cons_succ]
      refine wpAnyH_take (i := 7) (oi := { dst := some 8, op := Op.move (Operand.tmp 15), type := 78, pos := "feed.go:79", after := #[{ on := 6, ground := Ground.data }], guard := none }) (v := ?vv37) rfl (by kernel_rfl) (by kernel_rfl) (by kernel_rfl) (fun _ _ _ h => h) (Or.inl ⟨by rfl, ?hy37⟩) (by assumption) ?_
      case hy37 => (intro w hSw; (try dsimp only at hSw); go_simp; all_goals with_reducible rfl)
      try simp only [Act.put, List.setIfInBounds_toArray, List.set_cons_zero, List.set_cons_succ]
      refine wpAnyH_take (i := 8) (oi := { dst := some 16, op := Op.extract (Operand.tmp 8) 0, type := 28, pos := "feed.go:79", after := #[{ on := 7, ground := Ground.data }], guard := none }) (v := ?vv38) rfl (by kernel_rfl) (by kernel_rfl) (by kernel_rfl) (fun _ _ _ h => h) (Or.inl ⟨by rfl, ?hy38⟩) (by assumption) ?_
      case hy38 => (intro w hSw; (try dsimp only at hSw); go_simp; all_goals with_reducible rfl)
      try simp only [Act.put, List.setIfInBounds_toArray, List.set_cons_zero, List.set_cons_succ]
      refine wpAnyH_take (i := 9) (oi := { dst := some 17, op := Op.extract (Operand.tmp 8) 1, type := 3, pos := "feed.go:79", after := #[{ on := 7, ground := Ground.data }, { on := 13, ground := Ground.gcOnly Departure.lateStores }], guard := none }) (v := ?vv39) rfl (by kernel_rfl) (by kernel_rfl) (by kernel_rfl) (fun _ _ _ h => h) (Or.inl ⟨by rfl, ?hy39⟩) (by assumption) ?_
      case hy39 => (intro w hSw; (try dsimp only at hSw); go_simp; all_goals with_reducible rfl)
      try simp only [Act.put, List.setIfInBounds_toArray, List.set_cons_zero, List.set_cons_succ]
      refine wpAnyH_take (i := 10) (oi := { dst := some 18, op := Op.extract (Operand.tmp 8) 2, type := 30, pos := "feed.go:79", after := #[{ on := 7, ground := Ground.data }, { on := 14, ground := Ground.gcOnly Departure.lateStores }], guard := none }) (v := ?vv40) rfl (by kernel_rfl) (by kernel_rfl) (by kernel_rfl) (fun _ _ _ h => h) (Or.inl ⟨by rfl, ?hy40⟩) (by assumption) ?_
      case hy40 => (intro w hSw; (try dsimp only at hSw); go_simp; all_goals with_reducible rfl)
      try simp only [Act.put, List.setIfInBounds_toArray, List.set_cons_zero, List.set_cons_succ]
      obtain ⟨z0, z1, z2, z3, z4, z5, z6, z7, z8, z9, z10⟩ := FB.cells (f := Fr.zero) (p := .slice none 0 0) h5
      obtain ⟨y0, y1, y2, y3, y4, y5, y6, y7, y8, y9, y10⟩ := FB.frozens (f := Fr.zero) (p := .slice none 0 0) h5
      simp only [Fr.zero] at z0 z1 z2 z3 z4 z5 z6 z7 z8 z9 z10
      refine wpAnyH_ready (rs := [13]) (by kernel_rfl) (by simp) ?_
      refine AllReadyH.cons (o := { dst := none, op := Op.store 28 (Operand.tmp 5) (Operand.tmp 16), type := 0, pos := "feed.go:79", after := #[{ on := 11, ground := Ground.data }, { on := 8, ground := Ground.data }, { on := 6, ground := Ground.chain }, { on := 0, ground := Ground.phase }, { on := 1, ground := Ground.phase }, { on := 2, ground := Ground.phase }, { on := 3, ground := Ground.phase }, { on := 4, ground := Ground.phase }, { on := 5, ground := Ground.phase }, { on := 6, ground := Ground.phase }, { on := 7, ground := Ground.phase }, { on := 8, ground := Ground.phase }, { on := 9, ground := Ground.textOnly Departure.lateStores }, { on := 10, ground := Ground.textOnly Departure.lateStores }, { on := 11, ground := Ground.phase }, { on := 12, ground := Ground.phase }], guard := none }) rfl (fun K hK => ?_) AllReadyH.nil
      go_simp
      change K _ (sets Wxxxx a5 (fsets f (.slice pb pl pc)))
      have hne57 : a7 ≠ a5 := fun e => by rw [e, h5] at h7; simp at h7
      obtain ⟨x1, x2, x3, x4⟩ := hst5.out Wxxxx a5 a7 pb pl pc h5 h7 hb5 hne57 hP hIWxxxx
      refine hK.out _ _ (hfull.out _ x4) (fun hHeld => ?_)
      clear z0 z1 z2 z3 z4 z5 z6 z7 z8 z9 z10 y0 y1 y2 y3 y4 y5 y6 y7 y8 y9 y10 hK K
      generalize hWn : sets Wxxxx a5 (fsets f (.slice pb pl pc)) = Wn at x1 x2 x3 x4 hHeld ⊢
      clear hWn
      try simp only [Act.put, List.setIfInBounds_toArray, List.set_cons_zero, List.set_cons_succ]
      refine wpAnyH_take (i := 14) (oi := { dst := some 6, op := Op.assign (Operand.tmp 17), type := 3, pos := "feed.go:79", after := #[{ on := 9, ground := Ground.data }, { on := 13, ground := Ground.chain }, { on := 0, ground := Ground.phase }, { on := 1, ground := Ground.phase }, { on := 2, ground := Ground.phase }, { on := 3, ground := Ground.phase }, { on := 4, ground := Ground.phase }, { on := 5, ground := Ground.phase }, { on := 6, ground := Ground.phase }, { on := 7, ground := Ground.phase }, { on := 8, ground := Ground.phase }, { on := 9, ground := Ground.phase }, { on := 10, ground := Ground.textOnly Departure.lateStores }, { on := 11, ground := Ground.phase }, { on := 12, ground := Ground.phase }, { on := 13, ground := Ground.phase }], guard := none }) (v := ?vv41) rfl (by kernel_rfl) (by kernel_rfl) (by kernel_rfl) (fun _ _ _ h => h) (Or.inl ⟨by rfl, ?hy41⟩) (by assumption) ?_
      case hy41 => (intro w hSw; (try dsimp only at hSw); go_simp; all_goals with_reducible rfl)
      try simp only [Act.put, List.setIfInBounds_toArray, List.set_cons_zero, List.set_cons_succ]
      have q0 := cell_of_row _ _ 0 _ _ _ x2
      have q1 := cell_of_row _ _ 1 _ _ _ x2
      have q2 : Wn.frozen? ⟨a7, 0, none⟩ = false := frozen_row x2 0
      have q3 : Wn.frozen? ⟨a7, 1, none⟩ = false := frozen_row x2 1
      simp only [List.getElem?_toArray, List.getElem?_cons_succ, List.getElem?_cons_zero] at q0 q1
      refine wpAnyH_ready (rs := [15]) (by kernel_rfl) (by simp) ?_
      refine AllReadyH.cons (o := { dst := none, op := Op.store 30 (Operand.tmp 7) (Operand.tmp 18), type := 0, pos := "feed.go:79", after := #[{ on := 12, ground := Ground.data }, { on := 10, ground := Ground.data }, { on := 14, ground := Ground.chain }, { on := 0, ground := Ground.phase }, { on := 1, ground := Ground.phase }, { on := 2, ground := Ground.phase }, { on := 3, ground := Ground.phase }, { on := 4, ground := Ground.phase }, { on := 5, ground := Ground.phase }, { on := 6, ground := Ground.phase }, { on := 7, ground := Ground.phase }, { on := 8, ground := Ground.phase }, { on := 9, ground := Ground.phase }, { on := 10, ground := Ground.phase }, { on := 11, ground := Ground.phase }, { on := 12, ground := Ground.phase }, { on := 13, ground := Ground.phase }, { on := 14, ground := Ground.phase }], guard := none }) rfl (fun K hK => ?_) AllReadyH.nil
      go_simp
      change K _ (sets Wn a7 [(0, .int .i64 c), (1, .int .i64 x)])
      obtain ⟨t1, t2, t3, t4⟩ := hst7.out Wn a5 a7 pb pl pc x1 x2 hb7 hne57 x3 x4
      refine hK.out _ _ (hfull.out _ t4) (fun hHeld => ?_)
      clear hK K
      try simp only [Act.put, List.setIfInBounds_toArray, List.set_cons_zero, List.set_cons_succ]
      refine wpAnyH_done (by kernel_rfl) ?_ _
      go_wp2_with fail
      go_meet
      case rel => exact ⟨a5, a7, pb, pl, pc, rfl, rfl, rfl, t1, t2, hb5, hb7, hne57, t3, hPn, t4⟩
    refine AllReadyH.cons (o := { dst := some 7, op := Op.alloc 30, type := 0, pos := "feed.go:79", after := #[], guard := none }) rfl (fun K hK => ?_) AllReadyH.nil
    go_simp
    obtain ⟨Wxx, hV⟩ : ∃ Wxx, Wxx = Wx.alloc (.cells #[.int .i64 0, .int .i64 0] 30) := ⟨_, rfl⟩
    obtain ⟨a7, ha7⟩ : ∃ a7, a7 = Wx.heap.size := ⟨_, rfl⟩
    have h7 : Wxx.heap[a7]? = some (.cells #[.int .i64 0, .int .i64 0] 30 (0, 0)) := by rw [hV, ha7]; exact heap_alloc_new _ _
    have hIWxx : In w Wxx := by rw [hV]; exact hIWx.alloc _
    have hO : ∀ k, k < Wx.heap.size → Wxx.heap[k]? = Wx.heap[k]? := fun k hk => by rw [hV]; exact heap_alloc_old _ _ hk
    have hb7 : w.heap.size + 2 ≤ a7 := by rw [ha7]; exact hIWx.two
    rw [← hV, ← ha7]
    clear hV ha7
    refine hK.out _ _ (hfull.out _ hIWxx) (fun hHeld => ?_)
    replace h5 := (hO _ (Array.getElem?_eq_some_iff.1 h5).1).trans h5
    clear hK K hO hIWx
    try simp only [Act.put, List.setIfInBounds_toArray, List.set_cons_zero, List.set_cons_succ]
    refine wpAnyH_ready (rs := [1]) (by kernel_rfl) (by simp) ?_
    refine AllReadyH.cons (o := { dst := some 10, op := Op.call { callee := Callee.value (Operand.func 36), args := #[Operand.tmp 9], argTypes := #[23] }, type := 9, pos := "feed.go:79", after := #[{ on := 0, ground := Ground.data }], guard := none }) rfl (fun K hK => ?_) AllReadyH.nil
    go_simp
    refine (hfirst.out _ hIWxx).mono ?_
    rintro e' Wxxx ⟨rfl, hO, hIWxxx⟩
    go_wp2_with fail
    refine hK.out _ _ (hfull.out _ hIWxxx) (fun hHeld => ?_)
    replace h5 := (hO _ (Array.getElem?_eq_some_iff.1 h5).1).trans h5
    replace h7 := (hO _ (Array.getElem?_eq_some_iff.1 h7).1).trans h7
    clear hK K hO hIWxx
    try simp only [Act.put, List.setIfInBounds_toArray, List.set_cons_zero, List.set_cons_succ]
    refine wpAnyH_ready (rs := [6]) (by kernel_rfl) (by simp) ?_
    refine AllReadyH.cons (o := { dst := some 15, op := Op.call { callee := Callee.value (Operand.func 35), args := #[Operand.tmp 10, Operand.tmp 14], argTypes := #[9, 2] }, type := 78, pos := "feed.go:79", after := #[{ on := 1, ground := Ground.data }, { on := 5, ground := Ground.data }, { on := 1, ground := Ground.chain }], guard := none }) rfl (fun K hK => ?_) AllReadyH.nil
    go_simp
    refine (hread.out _ hIWxxx).mono ?_
    rintro e' Wxxxx ⟨pb, pl, pc, rfl, hP, hPn, hO, hIWxxxx⟩
    go_wp2_with fail
    refine hK.out _ _ (hfull.out _ hIWxxxx) (fun hHeld => ?_)
    replace h5 := (hO _ (Array.getElem?_eq_some_iff.1 h5).1).trans h5
    replace h7 := (hO _ (Array.getElem?_eq_some_iff.1 h7).1).trans h7
    clear hK K hO hIWxxx
    try simp only [Act.put, List.setIfInBounds_toArray, List.set_cons_zero, List.set_cons_succ]
    refine wpAnyH_take (i := 7) (oi := { dst := some 8, op := Op.move (Operand.tmp 15), type := 78, pos := "feed.go:79", after := #[{ on := 6, ground := Ground.data }], guard := none }) (v := ?vv42) rfl (by kernel_rfl) (by kernel_rfl) (by kernel_rfl) (fun _ _ _ h => h) (Or.inl ⟨by rfl, ?hy42⟩) (by assumption) ?_
    case hy42 => (intro w hSw; (try dsimp only at hSw); go_simp; all_goals with_reducible rfl)
    try simp only [Act.put, List.setIfInBounds_toArray, List.set_cons_zero, List.set_cons_succ]
    refine wpAnyH_take (i := 8) (oi := { dst := some 16, op := Op.extract (Operand.tmp 8) 0, type := 28, pos := "feed.go:79", after := #[{ on := 7, ground := Ground.data }], guard := none }) (v := ?vv43) rfl (by kernel_rfl) (by kernel_rfl) (by kernel_rfl) (fun _ _ _ h => h) (Or.inl ⟨by rfl, ?hy43⟩) (by assumption) ?_
    case hy43 => (intro w hSw; (try dsimp only at hSw); go_simp; all_goals with_reducible rfl)
    try simp only [Act.put, List.setIfInBounds_toArray, List.set_cons_zero, List.set_cons_succ]
    refine wpAnyH_take (i := 9) (oi := { dst := some 17, op := Op.extract (Operand.tmp 8) 1, type := 3, pos := "feed.go:79", after := #[{ on := 7, ground := Ground.data }, { on := 13, ground := Ground.gcOnly Departure.lateStores }], guard := none }) (v := ?vv44) rfl (by kernel_rfl) (by kernel_rfl) (by kernel_rfl) (fun _ _ _ h => h) (Or.inl ⟨by rfl, ?hy44⟩) (by assumption) ?_
    case hy44 => (intro w hSw; (try dsimp only at hSw); go_simp; all_goals with_reducible rfl)
    try simp only [Act.put, List.setIfInBounds_toArray, List.set_cons_zero, List.set_cons_succ]
    refine wpAnyH_take (i := 10) (oi := { dst := some 18, op := Op.extract (Operand.tmp 8) 2, type := 30, pos := "feed.go:79", after := #[{ on := 7, ground := Ground.data }, { on := 14, ground := Ground.gcOnly Departure.lateStores }], guard := none }) (v := ?vv45) rfl (by kernel_rfl) (by kernel_rfl) (by kernel_rfl) (fun _ _ _ h => h) (Or.inl ⟨by rfl, ?hy45⟩) (by assumption) ?_
    case hy45 => (intro w hSw; (try dsimp only at hSw); go_simp; all_goals with_reducible rfl)
    try simp only [Act.put, List.setIfInBounds_toArray, List.set_cons_zero, List.set_cons_succ]
    obtain ⟨z0, z1, z2, z3, z4, z5, z6, z7, z8, z9, z10⟩ := FB.cells (f := Fr.zero) (p := .slice none 0 0) h5
    obtain ⟨y0, y1, y2, y3, y4, y5, y6, y7, y8, y9, y10⟩ := FB.frozens (f := Fr.zero) (p := .slice none 0 0) h5
    simp only [Fr.zero] at z0 z1 z2 z3 z4 z5 z6 z7 z8 z9 z10
    refine wpAnyH_ready (rs := [13]) (by kernel_rfl) (by simp) ?_
    refine AllReadyH.cons (o := { dst := none, op := Op.store 28 (Operand.tmp 5) (Operand.tmp 16), type := 0, pos := "feed.go:79", after := #[{ on := 11, ground := Ground.data }, { on := 8, ground := Ground.data }, { on := 6, ground := Ground.chain }, { on := 0, ground := Ground.phase }, { on := 1, ground := Ground.phase }, { on := 2, ground := Ground.phase }, { on := 3, ground := Ground.phase }, { on := 4, ground := Ground.phase }, { on := 5, ground := Ground.phase }, { on := 6, ground := Ground.phase }, { on := 7, ground := Ground.phase }, { on := 8, ground := Ground.phase }, { on := 9, ground := Ground.textOnly Departure.lateStores }, { on := 10, ground := Ground.textOnly Departure.lateStores }, { on := 11, ground := Ground.phase }, { on := 12, ground := Ground.phase }], guard := none }) rfl (fun K hK => ?_) AllReadyH.nil
    go_simp
    change K _ (sets Wxxxx a5 (fsets f (.slice pb pl pc)))
    have hne57 : a7 ≠ a5 := fun e => by rw [e, h5] at h7; simp at h7
    obtain ⟨x1, x2, x3, x4⟩ := hst5.out Wxxxx a5 a7 pb pl pc h5 h7 hb5 hne57 hP hIWxxxx
    refine hK.out _ _ (hfull.out _ x4) (fun hHeld => ?_)
    clear z0 z1 z2 z3 z4 z5 z6 z7 z8 z9 z10 y0 y1 y2 y3 y4 y5 y6 y7 y8 y9 y10 hK K
    generalize hWn : sets Wxxxx a5 (fsets f (.slice pb pl pc)) = Wn at x1 x2 x3 x4 hHeld ⊢
    clear hWn
    try simp only [Act.put, List.setIfInBounds_toArray, List.set_cons_zero, List.set_cons_succ]
    refine wpAnyH_take (i := 14) (oi := { dst := some 6, op := Op.assign (Operand.tmp 17), type := 3, pos := "feed.go:79", after := #[{ on := 9, ground := Ground.data }, { on := 13, ground := Ground.chain }, { on := 0, ground := Ground.phase }, { on := 1, ground := Ground.phase }, { on := 2, ground := Ground.phase }, { on := 3, ground := Ground.phase }, { on := 4, ground := Ground.phase }, { on := 5, ground := Ground.phase }, { on := 6, ground := Ground.phase }, { on := 7, ground := Ground.phase }, { on := 8, ground := Ground.phase }, { on := 9, ground := Ground.phase }, { on := 10, ground := Ground.textOnly Departure.lateStores }, { on := 11, ground := Ground.phase }, { on := 12, ground := Ground.phase }, { on := 13, ground := Ground.phase }], guard := none }) (v := ?vv46) rfl (by kernel_rfl) (by kernel_rfl) (by kernel_rfl) (fun _ _ _ h => h) (Or.inl ⟨by rfl, ?hy46⟩) (by assumption) ?_
    case hy46 => (intro w hSw; (try dsimp only at hSw); go_simp; all_goals with_reducible rfl)
    try simp only [Act.put, List.setIfInBounds_toArray, List.set_cons_zero, List.set_cons_succ]
    have q0 := cell_of_row _ _ 0 _ _ _ x2
    have q1 := cell_of_row _ _ 1 _ _ _ x2
    have q2 : Wn.frozen? ⟨a7, 0, none⟩ = false := frozen_row x2 0
    have q3 : Wn.frozen? ⟨a7, 1, none⟩ = false := frozen_row x2 1
    simp only [List.getElem?_toArray, List.getElem?_cons_succ, List.getElem?_cons_zero] at q0 q1
    refine wpAnyH_ready (rs := [15]) (by kernel_rfl) (by simp) ?_
    refine AllReadyH.cons (o := { dst := none, op := Op.store 30 (Operand.tmp 7) (Operand.tmp 18), type := 0, pos := "feed.go:79", after := #[{ on := 12, ground := Ground.data }, { on := 10, ground := Ground.data }, { on := 14, ground := Ground.chain }, { on := 0, ground := Ground.phase }, { on := 1, ground := Ground.phase }, { on := 2, ground := Ground.phase }, { on := 3, ground := Ground.phase }, { on := 4, ground := Ground.phase }, { on := 5, ground := Ground.phase }, { on := 6, ground := Ground.phase }, { on := 7, ground := Ground.phase }, { on := 8, ground := Ground.phase }, { on := 9, ground := Ground.phase }, { on := 10, ground := Ground.phase }, { on := 11, ground := Ground.phase }, { on := 12, ground := Ground.phase }, { on := 13, ground := Ground.phase }, { on := 14, ground := Ground.phase }], guard := none }) rfl (fun K hK => ?_) AllReadyH.nil
    go_simp
    change K _ (sets Wn a7 [(0, .int .i64 c), (1, .int .i64 x)])
    obtain ⟨t1, t2, t3, t4⟩ := hst7.out Wn a5 a7 pb pl pc x1 x2 hb7 hne57 x3 x4
    refine hK.out _ _ (hfull.out _ t4) (fun hHeld => ?_)
    clear hK K
    try simp only [Act.put, List.setIfInBounds_toArray, List.set_cons_zero, List.set_cons_succ]
    refine wpAnyH_done (by kernel_rfl) ?_ _
    go_wp2_with fail
    go_meet
    case rel => exact ⟨a5, a7, pb, pl, pc, rfl, rfl, rfl, t1, t2, hb5, hb7, hne57, t3, hPn, t4⟩
  refine AllReadyH.cons (o := { dst := some 7, op := Op.alloc 30, type := 0, pos := "feed.go:79", after := #[], guard := none }) rfl (fun K hK => ?_) AllReadyH.nil
  go_simp
  obtain ⟨Wx, hV⟩ : ∃ Wx, Wx = W.alloc (.cells #[.int .i64 0, .int .i64 0] 30) := ⟨_, rfl⟩
  obtain ⟨a7, ha7⟩ : ∃ a7, a7 = W.heap.size := ⟨_, rfl⟩
  have h7 : Wx.heap[a7]? = some (.cells #[.int .i64 0, .int .i64 0] 30 (0, 0)) := by rw [hV, ha7]; exact heap_alloc_new _ _
  have hIWx : In w Wx := by rw [hV]; exact hIW.alloc _
  have hO : ∀ k, k < W.heap.size → Wx.heap[k]? = W.heap[k]? := fun k hk => by rw [hV]; exact heap_alloc_old _ _ hk
  have hb7 : w.heap.size + 2 ≤ a7 := by rw [ha7]; exact hIW.two
  rw [← hV, ← ha7]
  clear hV ha7
  refine hK.out _ _ (hfull.out _ hIWx) (fun hHeld => ?_)
  clear hK K hO hIW
  try simp only [Act.put, List.setIfInBounds_toArray, List.set_cons_zero, List.set_cons_succ]
  refine wpAnyH_ready (rs := [1, 11]) (by kernel_rfl) (by simp) ?_
  refine AllReadyH.cons (o := { dst := some 10, op := Op.call { callee := Callee.value (Operand.func 36), args := #[Operand.tmp 9], argTypes := #[23] }, type := 9, pos := "feed.go:79", after := #[{ on := 0, ground := Ground.data }], guard := none }) rfl (fun K hK => ?_) ?_
  · go_simp
    refine (hfirst.out _ hIWx).mono ?_
    rintro e' Wxx ⟨rfl, hO, hIWxx⟩
    go_wp2_with fail
    refine hK.out _ _ (hfull.out _ hIWxx) (fun hHeld => ?_)
    replace h7 := (hO _ (Array.getElem?_eq_some_iff.1 h7).1).trans h7
    clear hK K hO hIWx
    try simp only [Act.put, List.setIfInBounds_toArray, List.set_cons_zero, List.set_cons_succ]
    refine wpAnyH_ready (rs := [6, 11]) (by kernel_rfl) (by simp) ?_
    refine AllReadyH.cons (o := { dst := some 15, op := Op.call { callee := Callee.value (Operand.func 35), args := #[Operand.tmp 10, Operand.tmp 14], argTypes := #[9, 2] }, type := 78, pos := "feed.go:79", after := #[{ on := 1, ground := Ground.data }, { on := 5, ground := Ground.data }, { on := 1, ground := Ground.chain }], guard := none }) rfl (fun K hK => ?_) ?_
    · go_simp
      refine (hread.out _ hIWxx).mono ?_
      rintro e' Wxxx ⟨pb, pl, pc, rfl, hP, hPn, hO, hIWxxx⟩
      go_wp2_with fail
      refine hK.out _ _ (hfull.out _ hIWxxx) (fun hHeld => ?_)
      replace h7 := (hO _ (Array.getElem?_eq_some_iff.1 h7).1).trans h7
      clear hK K hO hIWxx
      try simp only [Act.put, List.setIfInBounds_toArray, List.set_cons_zero, List.set_cons_succ]
      refine wpAnyH_take (i := 7) (oi := { dst := some 8, op := Op.move (Operand.tmp 15), type := 78, pos := "feed.go:79", after := #[{ on := 6, ground := Ground.data }], guard := none }) (v := ?vv47) rfl (by kernel_rfl) (by kernel_rfl) (by kernel_rfl) (fun _ _ _ h => h) (Or.inl ⟨by rfl, ?hy47⟩) (by assumption) ?_
      case hy47 => (intro w hSw; (try dsimp only at hSw); go_simp; all_goals with_reducible rfl)
      try simp only [Act.put, List.setIfInBounds_toArray, List.set_cons_zero, List.set_cons_succ]
      refine wpAnyH_take (i := 8) (oi := { dst := some 16, op := Op.extract (Operand.tmp 8) 0, type := 28, pos := "feed.go:79", after := #[{ on := 7, ground := Ground.data }], guard := none }) (v := ?vv48) rfl (by kernel_rfl) (by kernel_rfl) (by kernel_rfl) (fun _ _ _ h => h) (Or.inl ⟨by rfl, ?hy48⟩) (by assumption) ?_
      case hy48 => (intro w hSw; (try dsimp only at hSw); go_simp; all_goals with_reducible rfl)
      try simp only [Act.put, List.setIfInBounds_toArray, List.set_cons_zero, List.set_cons_succ]
      refine wpAnyH_take (i := 9) (oi := { dst := some 17, op := Op.extract (Operand.tmp 8) 1, type := 3, pos := "feed.go:79", after := #[{ on := 7, ground := Ground.data }, { on := 13, ground := Ground.gcOnly Departure.lateStores }], guard := none }) (v := ?vv49) rfl (by kernel_rfl) (by kernel_rfl) (by kernel_rfl) (fun _ _ _ h => h) (Or.inl ⟨by rfl, ?hy49⟩) (by assumption) ?_
      case hy49 => (intro w hSw; (try dsimp only at hSw); go_simp; all_goals with_reducible rfl)
      try simp only [Act.put, List.setIfInBounds_toArray, List.set_cons_zero, List.set_cons_succ]
      refine wpAnyH_take (i := 10) (oi := { dst := some 18, op := Op.extract (Operand.tmp 8) 2, type := 30, pos := "feed.go:79", after := #[{ on := 7, ground := Ground.data }, { on := 14, ground := Ground.gcOnly Departure.lateStores }], guard := none }) (v := ?vv50) rfl (by kernel_rfl) (by kernel_rfl) (by kernel_rfl) (fun _ _ _ h => h) (Or.inl ⟨by rfl, ?hy50⟩) (by assumption) ?_
      case hy50 => (intro w hSw; (try dsimp only at hSw); go_simp; all_goals with_reducible rfl)
      try simp only [Act.put, List.setIfInBounds_toArray, List.set_cons_zero, List.set_cons_succ]
      refine wpAnyH_ready (rs := [11]) (by kernel_rfl) (by simp) ?_
      refine AllReadyH.cons (o := { dst := some 5, op := Op.alloc 28, type := 0, pos := "feed.go:79", after := #[], guard := none }) rfl (fun K hK => ?_) AllReadyH.nil
      go_simp
      obtain ⟨Wxxxx, hV⟩ : ∃ Wxxxx, Wxxxx = Wxxx.alloc (.cells #[.int .i64 0, .int .i64 0, .int .i64 0, .string ⟨#[]⟩, .int .i64 0, .int .i64 0, .bool false, .int .i64 0, .int .i64 0, .int .i64 0, .slice none 0 0] 28) := ⟨_, rfl⟩
      obtain ⟨a5, ha5⟩ : ∃ a5, a5 = Wxxx.heap.size := ⟨_, rfl⟩
      have h5 : Wxxxx.heap[a5]? = some (.cells #[.int .i64 0, .int .i64 0, .int .i64 0, .string ⟨#[]⟩, .int .i64 0, .int .i64 0, .bool false, .int .i64 0, .int .i64 0, .int .i64 0, .slice none 0 0] 28 (0, 0)) := by rw [hV, ha5]; exact heap_alloc_new _ _
      have hIWxxxx : In w Wxxxx := by rw [hV]; exact hIWxxx.alloc _
      have hO : ∀ k, k < Wxxx.heap.size → Wxxxx.heap[k]? = Wxxx.heap[k]? := fun k hk => by rw [hV]; exact heap_alloc_old _ _ hk
      have hb5 : w.heap.size + 2 ≤ a5 := by rw [ha5]; exact hIWxxx.two
      rw [← hV, ← ha5]
      clear hV ha5
      refine hK.out _ _ (hfull.out _ hIWxxxx) (fun hHeld => ?_)
      replace h7 := (hO _ (Array.getElem?_eq_some_iff.1 h7).1).trans h7
      replace hP := hP.below fun k _ hlt => hO k hlt
      clear hK K hO hIWxxx
      try simp only [Act.put, List.setIfInBounds_toArray, List.set_cons_zero, List.set_cons_succ]
      obtain ⟨z0, z1, z2, z3, z4, z5, z6, z7, z8, z9, z10⟩ := FB.cells (f := Fr.zero) (p := .slice none 0 0) h5
      obtain ⟨y0, y1, y2, y3, y4, y5, y6, y7, y8, y9, y10⟩ := FB.frozens (f := Fr.zero) (p := .slice none 0 0) h5
      simp only [Fr.zero] at z0 z1 z2 z3 z4 z5 z6 z7 z8 z9 z10
      refine wpAnyH_ready (rs := [13]) (by kernel_rfl) (by simp) ?_
      refine AllReadyH.cons (o := { dst := none, op := Op.store 28 (Operand.tmp 5) (Operand.tmp 16), type := 0, pos := "feed.go:79", after := #[{ on := 11, ground := Ground.data }, { on := 8, ground := Ground.data }, { on := 6, ground := Ground.chain }, { on := 0, ground := Ground.phase }, { on := 1, ground := Ground.phase }, { on := 2, ground := Ground.phase }, { on := 3, ground := Ground.phase }, { on := 4, ground := Ground.phase }, { on := 5, ground := Ground.phase }, { on := 6, ground := Ground.phase }, { on := 7, ground := Ground.phase }, { on := 8, ground := Ground.phase }, { on := 9, ground := Ground.textOnly Departure.lateStores }, { on := 10, ground := Ground.textOnly Departure.lateStores }, { on := 11, ground := Ground.phase }, { on := 12, ground := Ground.phase }], guard := none }) rfl (fun K hK => ?_) AllReadyH.nil
      go_simp
      change K _ (sets Wxxxx a5 (fsets f (.slice pb pl pc)))
      have hne57 : a7 ≠ a5 := fun e => by rw [e, h5] at h7; simp at h7
      obtain ⟨x1, x2, x3, x4⟩ := hst5.out Wxxxx a5 a7 pb pl pc h5 h7 hb5 hne57 hP hIWxxxx
      refine hK.out _ _ (hfull.out _ x4) (fun hHeld => ?_)
      clear z0 z1 z2 z3 z4 z5 z6 z7 z8 z9 z10 y0 y1 y2 y3 y4 y5 y6 y7 y8 y9 y10 hK K
      generalize hWn : sets Wxxxx a5 (fsets f (.slice pb pl pc)) = Wn at x1 x2 x3 x4 hHeld ⊢
      clear hWn
      try simp only [Act.put, List.setIfInBounds_toArray, List.set_cons_zero, List.set_cons_succ]
      refine wpAnyH_take (i := 14) (oi := { dst := some 6, op := Op.assign (Operand.tmp 17), type := 3, pos := "feed.go:79", after := #[{ on := 9, ground := Ground.data }, { on := 13, ground := Ground.chain }, { on := 0, ground := Ground.phase }, { on := 1, ground := Ground.phase }, { on := 2, ground := Ground.phase }, { on := 3, ground := Ground.phase }, { on := 4, ground := Ground.phase }, { on := 5, ground := Ground.phase }, { on := 6, ground := Ground.phase }, { on := 7, ground := Ground.phase }, { on := 8, ground := Ground.phase }, { on := 9, ground := Ground.phase }, { on := 10, ground := Ground.textOnly Departure.lateStores }, { on := 11, ground := Ground.phase }, { on := 12, ground := Ground.phase }, { on := 13, ground := Ground.phase }], guard := none }) (v := ?vv51) rfl (by kernel_rfl) (by kernel_rfl) (by kernel_rfl) (fun _ _ _ h => h) (Or.inl ⟨by rfl, ?hy51⟩) (by assumption) ?_
      case hy51 => (intro w hSw; (try dsimp only at hSw); go_simp; all_goals with_reducible rfl)
      try simp only [Act.put, List.setIfInBounds_toArray, List.set_cons_zero, List.set_cons_succ]
      have q0 := cell_of_row _ _ 0 _ _ _ x2
      have q1 := cell_of_row _ _ 1 _ _ _ x2
      have q2 : Wn.frozen? ⟨a7, 0, none⟩ = false := frozen_row x2 0
      have q3 : Wn.frozen? ⟨a7, 1, none⟩ = false := frozen_row x2 1
      simp only [List.getElem?_toArray, List.getElem?_cons_succ, List.getElem?_cons_zero] at q0 q1
      refine wpAnyH_ready (rs := [15]) (by kernel_rfl) (by simp) ?_
      refine AllReadyH.cons (o := { dst := none, op := Op.store 30 (Operand.tmp 7) (Operand.tmp 18), type := 0, pos := "feed.go:79", after := #[{ on := 12, ground := Ground.data }, { on := 10, ground := Ground.data }, { on := 14, ground := Ground.chain }, { on := 0, ground := Ground.phase }, { on := 1, ground := Ground.phase }, { on := 2, ground := Ground.phase }, { on := 3, ground := Ground.phase }, { on := 4, ground := Ground.phase }, { on := 5, ground := Ground.phase }, { on := 6, ground := Ground.phase }, { on := 7, ground := Ground.phase }, { on := 8, ground := Ground.phase }, { on := 9, ground := Ground.phase }, { on := 10, ground := Ground.phase }, { on := 11, ground := Ground.phase }, { on := 12, ground := Ground.phase }, { on := 13, ground := Ground.phase }, { on := 14, ground := Ground.phase }], guard := none }) rfl (fun K hK => ?_) AllReadyH.nil
      go_simp
      change K _ (sets Wn a7 [(0, .int .i64 c), (1, .int .i64 x)])
      obtain ⟨t1, t2, t3, t4⟩ := hst7.out Wn a5 a7 pb pl pc x1 x2 hb7 hne57 x3 x4
      refine hK.out _ _ (hfull.out _ t4) (fun hHeld => ?_)
      clear hK K
      try simp only [Act.put, List.setIfInBounds_toArray, List.set_cons_zero, List.set_cons_succ]
      refine wpAnyH_done (by kernel_rfl) ?_ _
      go_wp2_with fail
      go_meet
      case rel => exact ⟨a5, a7, pb, pl, pc, rfl, rfl, rfl, t1, t2, hb5, hb7, hne57, t3, hPn, t4⟩
    refine AllReadyH.cons (o := { dst := some 5, op := Op.alloc 28, type := 0, pos := "feed.go:79", after := #[], guard := none }) rfl (fun K hK => ?_) AllReadyH.nil
    go_simp
    obtain ⟨Wxxx, hV⟩ : ∃ Wxxx, Wxxx = Wxx.alloc (.cells #[.int .i64 0, .int .i64 0, .int .i64 0, .string ⟨#[]⟩, .int .i64 0, .int .i64 0, .bool false, .int .i64 0, .int .i64 0, .int .i64 0, .slice none 0 0] 28) := ⟨_, rfl⟩
    obtain ⟨a5, ha5⟩ : ∃ a5, a5 = Wxx.heap.size := ⟨_, rfl⟩
    have h5 : Wxxx.heap[a5]? = some (.cells #[.int .i64 0, .int .i64 0, .int .i64 0, .string ⟨#[]⟩, .int .i64 0, .int .i64 0, .bool false, .int .i64 0, .int .i64 0, .int .i64 0, .slice none 0 0] 28 (0, 0)) := by rw [hV, ha5]; exact heap_alloc_new _ _
    have hIWxxx : In w Wxxx := by rw [hV]; exact hIWxx.alloc _
    have hO : ∀ k, k < Wxx.heap.size → Wxxx.heap[k]? = Wxx.heap[k]? := fun k hk => by rw [hV]; exact heap_alloc_old _ _ hk
    have hb5 : w.heap.size + 2 ≤ a5 := by rw [ha5]; exact hIWxx.two
    rw [← hV, ← ha5]
    clear hV ha5
    refine hK.out _ _ (hfull.out _ hIWxxx) (fun hHeld => ?_)
    replace h7 := (hO _ (Array.getElem?_eq_some_iff.1 h7).1).trans h7
    clear hK K hO hIWxx
    try simp only [Act.put, List.setIfInBounds_toArray, List.set_cons_zero, List.set_cons_succ]
    refine wpAnyH_ready (rs := [6]) (by kernel_rfl) (by simp) ?_
    refine AllReadyH.cons (o := { dst := some 15, op := Op.call { callee := Callee.value (Operand.func 35), args := #[Operand.tmp 10, Operand.tmp 14], argTypes := #[9, 2] }, type := 78, pos := "feed.go:79", after := #[{ on := 1, ground := Ground.data }, { on := 5, ground := Ground.data }, { on := 1, ground := Ground.chain }], guard := none }) rfl (fun K hK => ?_) AllReadyH.nil
    go_simp
    refine (hread.out _ hIWxxx).mono ?_
    rintro e' Wxxxx ⟨pb, pl, pc, rfl, hP, hPn, hO, hIWxxxx⟩
    go_wp2_with fail
    refine hK.out _ _ (hfull.out _ hIWxxxx) (fun hHeld => ?_)
    replace h5 := (hO _ (Array.getElem?_eq_some_iff.1 h5).1).trans h5
    replace h7 := (hO _ (Array.getElem?_eq_some_iff.1 h7).1).trans h7
    clear hK K hO hIWxxx
    try simp only [Act.put, List.setIfInBounds_toArray, List.set_cons_zero, List.set_cons_succ]
    refine wpAnyH_take (i := 7) (oi := { dst := some 8, op := Op.move (Operand.tmp 15), type := 78, pos := "feed.go:79", after := #[{ on := 6, ground := Ground.data }], guard := none }) (v := ?vv52) rfl (by kernel_rfl) (by kernel_rfl) (by kernel_rfl) (fun _ _ _ h => h) (Or.inl ⟨by rfl, ?hy52⟩) (by assumption) ?_
    case hy52 => (intro w hSw; (try dsimp only at hSw); go_simp; all_goals with_reducible rfl)
    try simp only [Act.put, List.setIfInBounds_toArray, List.set_cons_zero, List.set_cons_succ]
    refine wpAnyH_take (i := 8) (oi := { dst := some 16, op := Op.extract (Operand.tmp 8) 0, type := 28, pos := "feed.go:79", after := #[{ on := 7, ground := Ground.data }], guard := none }) (v := ?vv53) rfl (by kernel_rfl) (by kernel_rfl) (by kernel_rfl) (fun _ _ _ h => h) (Or.inl ⟨by rfl, ?hy53⟩) (by assumption) ?_
    case hy53 => (intro w hSw; (try dsimp only at hSw); go_simp; all_goals with_reducible rfl)
    try simp only [Act.put, List.setIfInBounds_toArray, List.set_cons_zero, List.set_cons_succ]
    refine wpAnyH_take (i := 9) (oi := { dst := some 17, op := Op.extract (Operand.tmp 8) 1, type := 3, pos := "feed.go:79", after := #[{ on := 7, ground := Ground.data }, { on := 13, ground := Ground.gcOnly Departure.lateStores }], guard := none }) (v := ?vv54) rfl (by kernel_rfl) (by kernel_rfl) (by kernel_rfl) (fun _ _ _ h => h) (Or.inl ⟨by rfl, ?hy54⟩) (by assumption) ?_
    case hy54 => (intro w hSw; (try dsimp only at hSw); go_simp; all_goals with_reducible rfl)
    try simp only [Act.put, List.setIfInBounds_toArray, List.set_cons_zero, List.set_cons_succ]
    refine wpAnyH_take (i := 10) (oi := { dst := some 18, op := Op.extract (Operand.tmp 8) 2, type := 30, pos := "feed.go:79", after := #[{ on := 7, ground := Ground.data }, { on := 14, ground := Ground.gcOnly Departure.lateStores }], guard := none }) (v := ?vv55) rfl (by kernel_rfl) (by kernel_rfl) (by kernel_rfl) (fun _ _ _ h => h) (Or.inl ⟨by rfl, ?hy55⟩) (by assumption) ?_
    case hy55 => (intro w hSw; (try dsimp only at hSw); go_simp; all_goals with_reducible rfl)
    try simp only [Act.put, List.setIfInBounds_toArray, List.set_cons_zero, List.set_cons_succ]
    obtain ⟨z0, z1, z2, z3, z4, z5, z6, z7, z8, z9, z10⟩ := FB.cells (f := Fr.zero) (p := .slice none 0 0) h5
    obtain ⟨y0, y1, y2, y3, y4, y5, y6, y7, y8, y9, y10⟩ := FB.frozens (f := Fr.zero) (p := .slice none 0 0) h5
    simp only [Fr.zero] at z0 z1 z2 z3 z4 z5 z6 z7 z8 z9 z10
    refine wpAnyH_ready (rs := [13]) (by kernel_rfl) (by simp) ?_
    refine AllReadyH.cons (o := { dst := none, op := Op.store 28 (Operand.tmp 5) (Operand.tmp 16), type := 0, pos := "feed.go:79", after := #[{ on := 11, ground := Ground.data }, { on := 8, ground := Ground.data }, { on := 6, ground := Ground.chain }, { on := 0, ground := Ground.phase }, { on := 1, ground := Ground.phase }, { on := 2, ground := Ground.phase }, { on := 3, ground := Ground.phase }, { on := 4, ground := Ground.phase }, { on := 5, ground := Ground.phase }, { on := 6, ground := Ground.phase }, { on := 7, ground := Ground.phase }, { on := 8, ground := Ground.phase }, { on := 9, ground := Ground.textOnly Departure.lateStores }, { on := 10, ground := Ground.textOnly Departure.lateStores }, { on := 11, ground := Ground.phase }, { on := 12, ground := Ground.phase }], guard := none }) rfl (fun K hK => ?_) AllReadyH.nil
    go_simp
    change K _ (sets Wxxxx a5 (fsets f (.slice pb pl pc)))
    have hne57 : a7 ≠ a5 := fun e => by rw [e, h5] at h7; simp at h7
    obtain ⟨x1, x2, x3, x4⟩ := hst5.out Wxxxx a5 a7 pb pl pc h5 h7 hb5 hne57 hP hIWxxxx
    refine hK.out _ _ (hfull.out _ x4) (fun hHeld => ?_)
    clear z0 z1 z2 z3 z4 z5 z6 z7 z8 z9 z10 y0 y1 y2 y3 y4 y5 y6 y7 y8 y9 y10 hK K
    generalize hWn : sets Wxxxx a5 (fsets f (.slice pb pl pc)) = Wn at x1 x2 x3 x4 hHeld ⊢
    clear hWn
    try simp only [Act.put, List.setIfInBounds_toArray, List.set_cons_zero, List.set_cons_succ]
    refine wpAnyH_take (i := 14) (oi := { dst := some 6, op := Op.assign (Operand.tmp 17), type := 3, pos := "feed.go:79", after := #[{ on := 9, ground := Ground.data }, { on := 13, ground := Ground.chain }, { on := 0, ground := Ground.phase }, { on := 1, ground := Ground.phase }, { on := 2, ground := Ground.phase }, { on := 3, ground := Ground.phase }, { on := 4, ground := Ground.phase }, { on := 5, ground := Ground.phase }, { on := 6, ground := Ground.phase }, { on := 7, ground := Ground.phase }, { on := 8, ground := Ground.phase }, { on := 9, ground := Ground.phase }, { on := 10, ground := Ground.textOnly Departure.lateStores }, { on := 11, ground := Ground.phase }, { on := 12, ground := Ground.phase }, { on := 13, ground := Ground.phase }], guard := none }) (v := ?vv56) rfl (by kernel_rfl) (by kernel_rfl) (by kernel_rfl) (fun _ _ _ h => h) (Or.inl ⟨by rfl, ?hy56⟩) (by assumption) ?_
    case hy56 => (intro w hSw; (try dsimp only at hSw); go_simp; all_goals with_reducible rfl)
    try simp only [Act.put, List.setIfInBounds_toArray, List.set_cons_zero, List.set_cons_succ]
    have q0 := cell_of_row _ _ 0 _ _ _ x2
    have q1 := cell_of_row _ _ 1 _ _ _ x2
    have q2 : Wn.frozen? ⟨a7, 0, none⟩ = false := frozen_row x2 0
    have q3 : Wn.frozen? ⟨a7, 1, none⟩ = false := frozen_row x2 1
    simp only [List.getElem?_toArray, List.getElem?_cons_succ, List.getElem?_cons_zero] at q0 q1
    refine wpAnyH_ready (rs := [15]) (by kernel_rfl) (by simp) ?_
    refine AllReadyH.cons (o := { dst := none, op := Op.store 30 (Operand.tmp 7) (Operand.tmp 18), type := 0, pos := "feed.go:79", after := #[{ on := 12, ground := Ground.data }, { on := 10, ground := Ground.data }, { on := 14, ground := Ground.chain }, { on := 0, ground := Ground.phase }, { on := 1, ground := Ground.phase }, { on := 2, ground := Ground.phase }, { on := 3, ground := Ground.phase }, { on := 4, ground := Ground.phase }, { on := 5, ground := Ground.phase }, { on := 6, ground := Ground.phase }, { on := 7, ground := Ground.phase }, { on := 8, ground := Ground.phase }, { on := 9, ground := Ground.phase }, { on := 10, ground := Ground.phase }, { on := 11, ground := Ground.phase }, { on := 12, ground := Ground.phase }, { on := 13, ground := Ground.phase }, { on := 14, ground := Ground.phase }], guard := none }) rfl (fun K hK => ?_) AllReadyH.nil
    go_simp
    change K _ (sets Wn a7 [(0, .int .i64 c), (1, .int .i64 x)])
    obtain ⟨t1, t2, t3, t4⟩ := hst7.out Wn a5 a7 pb pl pc x1 x2 hb7 hne57 x3 x4
    refine hK.out _ _ (hfull.out _ t4) (fun hHeld => ?_)
    clear hK K
    try simp only [Act.put, List.setIfInBounds_toArray, List.set_cons_zero, List.set_cons_succ]
    refine wpAnyH_done (by kernel_rfl) ?_ _
    go_wp2_with fail
    go_meet
    case rel => exact ⟨a5, a7, pb, pl, pc, rfl, rfl, rfl, t1, t2, hb5, hb7, hne57, t3, hPn, t4⟩
  refine AllReadyH.cons (o := { dst := some 5, op := Op.alloc 28, type := 0, pos := "feed.go:79", after := #[], guard := none }) rfl (fun K hK => ?_) AllReadyH.nil
  go_simp
  obtain ⟨Wxx, hV⟩ : ∃ Wxx, Wxx = Wx.alloc (.cells #[.int .i64 0, .int .i64 0, .int .i64 0, .string ⟨#[]⟩, .int .i64 0, .int .i64 0, .bool false, .int .i64 0, .int .i64 0, .int .i64 0, .slice none 0 0] 28) := ⟨_, rfl⟩
  obtain ⟨a5, ha5⟩ : ∃ a5, a5 = Wx.heap.size := ⟨_, rfl⟩
  have h5 : Wxx.heap[a5]? = some (.cells #[.int .i64 0, .int .i64 0, .int .i64 0, .string ⟨#[]⟩, .int .i64 0, .int .i64 0, .bool false, .int .i64 0, .int .i64 0, .int .i64 0, .slice none 0 0] 28 (0, 0)) := by rw [hV, ha5]; exact heap_alloc_new _ _
  have hIWxx : In w Wxx := by rw [hV]; exact hIWx.alloc _
  have hO : ∀ k, k < Wx.heap.size → Wxx.heap[k]? = Wx.heap[k]? := fun k hk => by rw [hV]; exact heap_alloc_old _ _ hk
  have hb5 : w.heap.size + 2 ≤ a5 := by rw [ha5]; exact hIWx.two
  rw [← hV, ← ha5]
  clear hV ha5
  refine hK.out _ _ (hfull.out _ hIWxx) (fun hHeld => ?_)
  replace h7 := (hO _ (Array.getElem?_eq_some_iff.1 h7).1).trans h7
  clear hK K hO hIWx
  try simp only [Act.put, List.setIfInBounds_toArray, List.set_cons_zero, List.set_cons_succ]
  refine wpAnyH_ready (rs := [1]) (by kernel_rfl) (by simp) ?_
  refine AllReadyH.cons (o := { dst := some 10, op := Op.call { callee := Callee.value (Operand.func 36), args := #[Operand.tmp 9], argTypes := #[23] }, type := 9, pos := "feed.go:79", after := #[{ on := 0, ground := Ground.data }], guard := none }) rfl (fun K hK => ?_) AllReadyH.nil
  go_simp
  refine (hfirst.out _ hIWxx).mono ?_
  rintro e' Wxxx ⟨rfl, hO, hIWxxx⟩
  go_wp2_with fail
  refine hK.out _ _ (hfull.out _ hIWxxx) (fun hHeld => ?_)
  replace h5 := (hO _ (Array.getElem?_eq_some_iff.1 h5).1).trans h5
  replace h7 := (hO _ (Array.getElem?_eq_some_iff.1 h7).1).trans h7
  clear hK K hO hIWxx
  try simp only [Act.put, List.setIfInBounds_toArray, List.set_cons_zero, List.set_cons_succ]
  refine wpAnyH_ready (rs := [6]) (by kernel_rfl) (by simp) ?_
  refine AllReadyH.cons (o := { dst := some 15, op := Op.call { callee := Callee.value (Operand.func 35), args := #[Operand.tmp 10, Operand.tmp 14], argTypes := #[9, 2] }, type := 78, pos := "feed.go:79", after := #[{ on := 1, ground := Ground.data }, { on := 5, ground := Ground.data }, { on := 1, ground := Ground.chain }], guard := none }) rfl (fun K hK => ?_) AllReadyH.nil
  go_simp
  refine (hread.out _ hIWxxx).mono ?_
  rintro e' Wxxxx ⟨pb, pl, pc, rfl, hP, hPn, hO, hIWxxxx⟩
  go_wp2_with fail
  refine hK.out _ _ (hfull.out _ hIWxxxx) (fun hHeld => ?_)
  replace h5 := (hO _ (Array.getElem?_eq_some_iff.1 h5).1).trans h5
  replace h7 := (hO _ (Array.getElem?_eq_some_iff.1 h7).1).trans h7
  clear hK K hO hIWxxx
  try simp only [Act.put, List.setIfInBounds_toArray, List.set_cons_zero, List.set_cons_succ]
  refine wpAnyH_take (i := 7) (oi := { dst := some 8, op := Op.move (Operand.tmp 15), type := 78, pos := "feed.go:79", after := #[{ on := 6, ground := Ground.data }], guard := none }) (v := ?vv57) rfl (by kernel_rfl) (by kernel_rfl) (by kernel_rfl) (fun _ _ _ h => h) (Or.inl ⟨by rfl, ?hy57⟩) (by assumption) ?_
  case hy57 => (intro w hSw; (try dsimp only at hSw); go_simp; all_goals with_reducible rfl)
  try simp only [Act.put, List.setIfInBounds_toArray, List.set_cons_zero, List.set_cons_succ]
  refine wpAnyH_take (i := 8) (oi := { dst := some 16, op := Op.extract (Operand.tmp 8) 0, type := 28, pos := "feed.go:79", after := #[{ on := 7, ground := Ground.data }], guard := none }) (v := ?vv58) rfl (by kernel_rfl) (by kernel_rfl) (by kernel_rfl) (fun _ _ _ h => h) (Or.inl ⟨by rfl, ?hy58⟩) (by assumption) ?_
  case hy58 => (intro w hSw; (try dsimp only at hSw); go_simp; all_goals with_reducible rfl)
  try simp only [Act.put, List.setIfInBounds_toArray, List.set_cons_zero, List.set_cons_succ]
  refine wpAnyH_take (i := 9) (oi := { dst := some 17, op := Op.extract (Operand.tmp 8) 1, type := 3, pos := "feed.go:79", after := #[{ on := 7, ground := Ground.data }, { on := 13, ground := Ground.gcOnly Departure.lateStores }], guard := none }) (v := ?vv59) rfl (by kernel_rfl) (by kernel_rfl) (by kernel_rfl) (fun _ _ _ h => h) (Or.inl ⟨by rfl, ?hy59⟩) (by assumption) ?_
  case hy59 => (intro w hSw; (try dsimp only at hSw); go_simp; all_goals with_reducible rfl)
  try simp only [Act.put, List.setIfInBounds_toArray, List.set_cons_zero, List.set_cons_succ]
  refine wpAnyH_take (i := 10) (oi := { dst := some 18, op := Op.extract (Operand.tmp 8) 2, type := 30, pos := "feed.go:79", after := #[{ on := 7, ground := Ground.data }, { on := 14, ground := Ground.gcOnly Departure.lateStores }], guard := none }) (v := ?vv60) rfl (by kernel_rfl) (by kernel_rfl) (by kernel_rfl) (fun _ _ _ h => h) (Or.inl ⟨by rfl, ?hy60⟩) (by assumption) ?_
  case hy60 => (intro w hSw; (try dsimp only at hSw); go_simp; all_goals with_reducible rfl)
  try simp only [Act.put, List.setIfInBounds_toArray, List.set_cons_zero, List.set_cons_succ]
  obtain ⟨z0, z1, z2, z3, z4, z5, z6, z7, z8, z9, z10⟩ := FB.cells (f := Fr.zero) (p := .slice none 0 0) h5
  obtain ⟨y0, y1, y2, y3, y4, y5, y6, y7, y8, y9, y10⟩ := FB.frozens (f := Fr.zero) (p := .slice none 0 0) h5
  simp only [Fr.zero] at z0 z1 z2 z3 z4 z5 z6 z7 z8 z9 z10
  refine wpAnyH_ready (rs := [13]) (by kernel_rfl) (by simp) ?_
  refine AllReadyH.cons (o := { dst := none, op := Op.store 28 (Operand.tmp 5) (Operand.tmp 16), type := 0, pos := "feed.go:79", after := #[{ on := 11, ground := Ground.data }, { on := 8, ground := Ground.data }, { on := 6, ground := Ground.chain }, { on := 0, ground := Ground.phase }, { on := 1, ground := Ground.phase }, { on := 2, ground := Ground.phase }, { on := 3, ground := Ground.phase }, { on := 4, ground := Ground.phase }, { on := 5, ground := Ground.phase }, { on := 6, ground := Ground.phase }, { on := 7, ground := Ground.phase }, { on := 8, ground := Ground.phase }, { on := 9, ground := Ground.textOnly Departure.lateStores }, { on := 10, ground := Ground.textOnly Departure.lateStores }, { on := 11, ground := Ground.phase }, { on := 12, ground := Ground.phase }], guard := none }) rfl (fun K hK => ?_) AllReadyH.nil
  go_simp
  change K _ (sets Wxxxx a5 (fsets f (.slice pb pl pc)))
  have hne57 : a7 ≠ a5 := fun e => by rw [e, h5] at h7; simp at h7
  obtain ⟨x1, x2, x3, x4⟩ := hst5.out Wxxxx a5 a7 pb pl pc h5 h7 hb5 hne57 hP hIWxxxx
  refine hK.out _ _ (hfull.out _ x4) (fun hHeld => ?_)
  clear z0 z1 z2 z3 z4 z5 z6 z7 z8 z9 z10 y0 y1 y2 y3 y4 y5 y6 y7 y8 y9 y10 hK K
  generalize hWn : sets Wxxxx a5 (fsets f (.slice pb pl pc)) = Wn at x1 x2 x3 x4 hHeld ⊢
  clear hWn
  try simp only [Act.put, List.setIfInBounds_toArray, List.set_cons_zero, List.set_cons_succ]
  refine wpAnyH_take (i := 14) (oi := { dst := some 6, op := Op.assign (Operand.tmp 17), type := 3, pos := "feed.go:79", after := #[{ on := 9, ground := Ground.data }, { on := 13, ground := Ground.chain }, { on := 0, ground := Ground.phase }, { on := 1, ground := Ground.phase }, { on := 2, ground := Ground.phase }, { on := 3, ground := Ground.phase }, { on := 4, ground := Ground.phase }, { on := 5, ground := Ground.phase }, { on := 6, ground := Ground.phase }, { on := 7, ground := Ground.phase }, { on := 8, ground := Ground.phase }, { on := 9, ground := Ground.phase }, { on := 10, ground := Ground.textOnly Departure.lateStores }, { on := 11, ground := Ground.phase }, { on := 12, ground := Ground.phase }, { on := 13, ground := Ground.phase }], guard := none }) (v := ?vv61) rfl (by kernel_rfl) (by kernel_rfl) (by kernel_rfl) (fun _ _ _ h => h) (Or.inl ⟨by rfl, ?hy61⟩) (by assumption) ?_
  case hy61 => (intro w hSw; (try dsimp only at hSw); go_simp; all_goals with_reducible rfl)
  try simp only [Act.put, List.setIfInBounds_toArray, List.set_cons_zero, List.set_cons_succ]
  have q0 := cell_of_row _ _ 0 _ _ _ x2
  have q1 := cell_of_row _ _ 1 _ _ _ x2
  have q2 : Wn.frozen? ⟨a7, 0, none⟩ = false := frozen_row x2 0
  have q3 : Wn.frozen? ⟨a7, 1, none⟩ = false := frozen_row x2 1
  simp only [List.getElem?_toArray, List.getElem?_cons_succ, List.getElem?_cons_zero] at q0 q1
  refine wpAnyH_ready (rs := [15]) (by kernel_rfl) (by simp) ?_
  refine AllReadyH.cons (o := { dst := none, op := Op.store 30 (Operand.tmp 7) (Operand.tmp 18), type := 0, pos := "feed.go:79", after := #[{ on := 12, ground := Ground.data }, { on := 10, ground := Ground.data }, { on := 14, ground := Ground.chain }, { on := 0, ground := Ground.phase }, { on := 1, ground := Ground.phase }, { on := 2, ground := Ground.phase }, { on := 3, ground := Ground.phase }, { on := 4, ground := Ground.phase }, { on := 5, ground := Ground.phase }, { on := 6, ground := Ground.phase }, { on := 7, ground := Ground.phase }, { on := 8, ground := Ground.phase }, { on := 9, ground := Ground.phase }, { on := 10, ground := Ground.phase }, { on := 11, ground := Ground.phase }, { on := 12, ground := Ground.phase }, { on := 13, ground := Ground.phase }, { on := 14, ground := Ground.phase }], guard := none }) rfl (fun K hK => ?_) AllReadyH.nil
  go_simp
  change K _ (sets Wn a7 [(0, .int .i64 c), (1, .int .i64 x)])
  obtain ⟨t1, t2, t3, t4⟩ := hst7.out Wn a5 a7 pb pl pc x1 x2 hb7 hne57 x3 x4
  refine hK.out _ _ (hfull.out _ t4) (fun hHeld => ?_)
  clear hK K
  try simp only [Act.put, List.setIfInBounds_toArray, List.set_cons_zero, List.set_cons_succ]
  refine wpAnyH_done (by kernel_rfl) ?_ _
  go_wp2_with fail
  go_meet
  case rel => exact ⟨a5, a7, pb, pl, pc, rfl, rfl, rfl, t1, t2, hb5, hb7, hne57, t3, hPn, t4⟩
end Go.Proofs.YtmhbaaemihljjaaDoor
