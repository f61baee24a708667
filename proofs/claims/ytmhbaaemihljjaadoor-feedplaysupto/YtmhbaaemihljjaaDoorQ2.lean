/- The document's Next. -/
import Derived.Test.YtmhbaaemihljjaaDoorQ1
import Derived.Test.YtmhbaaemihljjaaDoorF5
import Derived.Deep.RegionHeld3
import Derived.Deep.Cut
import Derived.Deep.CutRange
namespace Go.Proofs.YtmhbaaemihljjaaDoor
open Go.RowKit
set_option linter.unusedVariables false
set_option linter.unusedSimpArgs false

/-- Behind w the two results lie, and more; of w only g has turned. -/
structure Ix (w W : World) (g : Nat) (R : Rs) : Prop where
  kp : Kp g w W
  two : w.heap.size + 2 ≤ W.heap.size
  z0 : W.heap[w.heap.size]? = some (.cells #[.int .i64 0, .int .i64 0, .int .i64 0, .string ⟨#[]⟩, .int .i64 0, .int .i64 0, .bool false, .int .i64 0, .int .i64 0, .int .i64 0, .slice none 0 0] 28 (0, 0))
  z1 : W.heap[w.heap.size + 1]? = some (.cells #[.int .i64 0, .int .i64 0] 30 (0, 0))
  rf : RF W g R
  lt : g < w.heap.size
theorem Ix.below {w W W' : World} {g : Nat} {R : Rs} (h : Ix w W g R) (hb : Below W.heap.size W W') : Ix w W' g R :=
  ⟨h.kp.trans (Kp.of_below hb), Nat.le_trans h.two hb.size, (hb.block _ (by have := h.two; omega)).trans h.z0, (hb.block _ (by have := h.two; omega)).trans h.z1, (hb.block _ h.rf.lt).trans h.rf, h.lt⟩
theorem Ix.alloc {w W : World} {g : Nat} {R : Rs} (h : Ix w W g R) (o : Obj) : Ix w (W.alloc o) g R := h.below ((Below.refl _ W).alloc (Nat.le_refl _) o)
theorem Ix.wr {w W : World} {g : Nat} {R : Rs} (h : Ix w W g R) (a : Nat) (ha : w.heap.size + 2 ≤ a) (l : List (Nat × Value)) : Ix w (sets W a l) g R := by
  have hlt := h.lt
  have hb := sets_below a (w.heap.size + 2) ha l W
  exact ⟨⟨hb.os.trans h.kp.os, hb.tape.trans h.kp.tape, hb.output.trans h.kp.output, by rw [sets_size]; exact h.kp.size, fun k hk hne => (sets_other _ _ (by omega) _ _).trans (h.kp.block k hk hne)⟩, by rw [sets_size]; exact h.two, (sets_other _ _ (by omega) _ _).trans h.z0, (sets_other _ _ (by omega) _ _).trans h.z1, (sets_other _ _ (by omega) _ _).trans h.rf, hlt⟩
/-- the feed is written -/
theorem Ix.feed {w W : World} {g : Nat} {R : Rs} (h : Ix w W g R) (R' : Rs) (gl : List (Nat × Value)) (hfold : gl.foldl (fun c x => c.setIfInBounds x.1 x.2) (rfv R) = rfv R') : Ix w (sets W g gl) g R' := by
  have hlt := h.lt
  have hb := sets_below g 0 (Nat.zero_le _) gl W
  exact ⟨⟨hb.os.trans h.kp.os, hb.tape.trans h.kp.tape, hb.output.trans h.kp.output, by rw [sets_size]; exact h.kp.size, fun k hk hne => (sets_other _ _ hne _ _).trans (h.kp.block k hk hne)⟩, by rw [sets_size]; exact h.two, (sets_other _ _ (by omega) _ _).trans h.z0, (sets_other _ _ (by omega) _ _).trans h.z1, by unfold RF; rw [sets_block _ _ _ _ _ _ h.rf, hfold], hlt⟩

structure RxR where
  fp : Fr × List (Int × Int)
  ok : Bool
  c : Int
  x : Int
  R : Rs
def RNPost (w : World) (g : Nat) (r : RxR) (e : Ending) (w' : World) : Prop :=
  ∃ pb pl pc, e = .returned (.tuple #[.agg (fv r.fp.1 (.slice pb pl pc)), .bool r.ok, .agg #[.int .i64 r.c, .int .i64 r.x]]) ∧ PRow w' (.slice pb pl pc) r.fp.2 ∧ (∀ k, (Value.slice pb pl pc).ownBlock = some k → w.heap.size ≤ k) ∧ RF w' g r.R ∧ Kp g w w'

/-- what is read -/
def rrd (R : Rs) : RxR :=
  if (readS R.b R.most).2.2.1 ≠ 0 ∧ (readS R.b R.most).2.2.2 = 0 then ⟨(Fr.zero, []), false, (readS R.b R.most).2.2.1, 0, rdead R (readS R.b R.most).2.2.1⟩
  else if (readS R.b R.most).2.2.1 ≠ 0 then ⟨(Fr.zero, []), false, (readS R.b R.most).2.2.1, (readS R.b R.most).2.2.2, { R with b := R.b.extract (readS R.b R.most).2.1.toNat R.b.size }⟩
  else if (readS R.b R.most).2.1 = 0 then ⟨(Fr.zero, []), false, 0, 0, R⟩
  else ⟨(readS R.b R.most).1, true, 0, 0, { R with b := R.b.extract (readS R.b R.most).2.1.toNat R.b.size }⟩

set_option maxRecDepth 100000 in
set_option maxHeartbeats 8000000 in
theorem rn_noGreet (w : World) (g : Nat) (R1 : Rs) (h : RF w g R1) (hg : R1.greets = false) (hc0 : R1.code = 0) :
    Calls Tryd.prog 23 #[.pointer (some ⟨g, 0, none⟩)] w fun e w' => RNPost w g (rrd R1) e w' := by
  have hlist : (⟨R1.b.data.toList.toArray⟩ : ByteArray) = R1.b := by cases R1.b; simp
  have hrd := rdL_cases R1.b.data.toList R1.most
  unfold rdL at hrd
  rw [hlist] at hrd
  obtain ⟨r, hr⟩ : ∃ r, readS R1.b R1.most = r := ⟨_, rfl⟩
  obtain ⟨T, hT⟩ : ∃ T, T = rrd R1 := ⟨_, rfl⟩
  rw [← hT]
  unfold rrd at hT
  rw [hr] at hrd hT
  obtain ⟨⟨f, ps⟩, n, c, x⟩ := r
  have hbl : R1.b.data.toList.length = R1.b.size := by simp
  obtain ⟨M, hM, hMl⟩ : ∃ M : Nat, n = (M : Int) ∧ M ≤ R1.b.size := by
    rcases hrd with ⟨h1, h2⟩ | ⟨_, _, _, h1⟩ | ⟨_, _, _, _, h2, h1⟩ | ⟨_, _, h2, h1⟩
    · cases h1; exact ⟨0, rfl, Nat.zero_le _⟩
    · cases h1; exact ⟨0, rfl, Nat.zero_le _⟩
    · cases h1; exact ⟨_, rfl, by omega⟩
    · cases h1; exact ⟨_, rfl, by omega⟩
  subst hM
  have HR : Hid _ := hrd
  have HT : Hid _ := hT
  have hread : Hid (∀ W, Ix w W g R1 → Calls Tryd.prog 34 #[.string R1.b, .int .i64 R1.most] W fun e w' => ∃ pb pl pc, e = .returned (.tuple #[.agg #[.int .i64 f.ty, .int .i64 f.fl, .int .i64 f.st, .string f.data, .int .i64 f.pad, .int .i64 f.dep, .bool f.excl, .int .i64 f.wt, .int .i64 f.code, .int .i64 f.last, .slice pb pl pc], .int .i64 (M : Int), .agg #[.int .i64 c, .int .i64 x]]) ∧ PRow w' (.slice pb pl pc) ps ∧ (∀ k, (Value.slice pb pl pc).ownBlock = some k → w.heap.size ≤ k) ∧ (∀ k, k < W.heap.size → w'.heap[k]? = W.heap[k]?) ∧ Ix w w' g R1) := fun W hI => by
    refine (ref_any R1.b R1.most W).mono ?_
    intro e w' hp
    rw [hr] at hp
    obtain ⟨p, rfl, q1, q2, q3⟩ := hp
    obtain ⟨pb, pc, rfl⟩ := q1.slice
    exact ⟨pb, _, pc, rfl, q1, fun k hk => by have := q2 k hk; have := hI.two; omega, fun k hk => q3.block k hk, hI.below q3⟩
  have hfull : Hid (∀ W, Ix w W g R1 → W.cell? ⟨g, 2, none⟩ = some (.string R1.b) ∧ W.cell? ⟨g, 1, none⟩ = some (.int .i64 R1.most) ∧ Ix w W g R1) := fun W hI => ⟨hI.rf.cells.2.2.1, hI.rf.cells.2.1, hI⟩
  have hst5 : Hid (∀ (W : World) (a5 a7 : Nat) (pb : Option Addr) (pl pc : Nat), W.heap[a5]? = some (.cells #[.int .i64 0, .int .i64 0, .int .i64 0, .string ⟨#[]⟩, .int .i64 0, .int .i64 0, .bool false, .int .i64 0, .int .i64 0, .int .i64 0, .slice none 0 0] 28 (0, 0)) → W.heap[a7]? = some (.cells #[.int .i64 0, .int .i64 0] 30 (0, 0)) → w.heap.size + 2 ≤ a5 → a7 ≠ a5 → PRow W (.slice pb pl pc) ps → Ix w W g R1 →
      FB (sets W a5 (fsets f (.slice pb pl pc))) a5 f (.slice pb pl pc) ∧ (sets W a5 (fsets f (.slice pb pl pc))).heap[a7]? = some (.cells #[.int .i64 0, .int .i64 0] 30 (0, 0)) ∧ PRow (sets W a5 (fsets f (.slice pb pl pc))) (.slice pb pl pc) ps ∧ Ix w (sets W a5 (fsets f (.slice pb pl pc))) g R1) := by
    intro W a5 a7 pb pl pc h5 h7 hb hne hP hI
    refine ⟨?_, (sets_other _ _ hne _ _).trans h7, hP.below fun k hk _ => sets_other _ _ (fun e => ?_) _ _, hI.wr a5 hb _⟩
    · unfold FB
      rw [sets_block _ _ _ _ _ _ h5]
      simp only [fsets, fv, List.foldl_cons, List.foldl_nil, List.setIfInBounds_toArray, List.set_cons_zero, List.set_cons_succ]
    · obtain ⟨cur, hc⟩ := hP.type k hk
      rw [e, h5] at hc
      simp at hc
  have hst7 : Hid (∀ (W : World) (a5 a7 : Nat) (pb : Option Addr) (pl pc : Nat), FB W a5 f (.slice pb pl pc) → W.heap[a7]? = some (.cells #[.int .i64 0, .int .i64 0] 30 (0, 0)) → w.heap.size + 2 ≤ a7 → a7 ≠ a5 → PRow W (.slice pb pl pc) ps → Ix w W g R1 →
      FB (sets W a7 [(0, .int .i64 c), (1, .int .i64 x)]) a5 f (.slice pb pl pc) ∧ (sets W a7 [(0, .int .i64 c), (1, .int .i64 x)]).heap[a7]? = some (.cells #[.int .i64 c, .int .i64 x] 30 (0, 0)) ∧ PRow (sets W a7 [(0, .int .i64 c), (1, .int .i64 x)]) (.slice pb pl pc) ps ∧ Ix w (sets W a7 [(0, .int .i64 c), (1, .int .i64 x)]) g R1) := by
    intro W a5 a7 pb pl pc h5 h7 hb hne hP hI
    refine ⟨(sets_other _ _ (Ne.symm hne) _ _).trans h5, ?_, hP.below fun k hk _ => sets_other _ _ (fun e => ?_) _ _, hI.wr a7 hb _⟩
    · rw [sets_block _ _ _ _ _ _ h7]
      simp only [List.foldl_cons, List.foldl_nil, List.setIfInBounds_toArray, List.set_cons_zero, List.set_cons_succ]
    · obtain ⟨cur, hc⟩ := hP.type k hk
      rw [e, h7] at hc
      simp at hc
  obtain ⟨c0, c1, c2, c3, c4⟩ := h.cells
  have hlt := h.lt
  have hne : ¬ g = w.heap.size := by omega
  have hne1 : ¬ g = w.heap.size + 1 := by omega
  have hIx : Hid (Ix w ((w.alloc (.cells #[.int .i64 0, .int .i64 0, .int .i64 0, .string ⟨#[]⟩, .int .i64 0, .int .i64 0, .bool false, .int .i64 0, .int .i64 0, .int .i64 0, .slice none 0 0] 28)).alloc (.cells #[.int .i64 0, .int .i64 0] 30)) g R1) := by
    have hb : Below w.heap.size w ((w.alloc (.cells #[.int .i64 0, .int .i64 0, .int .i64 0, .string ⟨#[]⟩, .int .i64 0, .int .i64 0, .bool false, .int .i64 0, .int .i64 0, .int .i64 0, .slice none 0 0] 28)).alloc (.cells #[.int .i64 0, .int .i64 0] 30)) := ((Below.refl _ w).alloc (Nat.le_refl _) _).alloc (by simp) _
    refine ⟨Kp.of_below hb, by simp, ?_, ?_, (hb.block g hlt).trans h, hlt⟩
    · simp only [heap_al, size_al]
      rw [if_neg (by omega), if_pos trivial]
    · simp only [heap_al, size_al]
      rw [if_pos trivial]
  have k0 := hIx.out.rf.cells
  obtain ⟨k0, k1, k2, k3, k4⟩ := k0
  rw [hc0] at k3
  rw [hg] at k0
  clear hrd hr hT h c0 c1 c2 c3 c4 hbl hlist
  go_enter Tryd.func23, Tryd.ntmps23
  go_wp2_with fail
  go_cut [6, 7, 8] from 71 (fun x5 x6 x7 wx => ∃ (a5 a7 : Nat) (pb : Option Addr) (pl pc : Nat), x5 = .pointer (some ⟨a5, 0, none⟩) ∧ x6 = .int .i64 (M : Int) ∧ x7 = .pointer (some ⟨a7, 0, none⟩) ∧ FB wx a5 f (.slice pb pl pc) ∧ wx.heap[a7]? = some (.cells #[.int .i64 c, .int .i64 x] 30 (0, 0)) ∧ w.heap.size + 2 ≤ a5 ∧ w.heap.size + 2 ≤ a7 ∧ a7 ≠ a5 ∧ PRow wx (.slice pb pl pc) ps ∧ (∀ k, (Value.slice pb pl pc).ownBlock = some k → w.heap.size ≤ k) ∧ Ix w wx g R1)
  case first =>
    clear k0 k1 k2 k3 k4
    have hIW : Ix w _ g R1 := hIx.out.below (Below.refl _ _).drew
    refine wp_region_held_drew (S := fun W => W.cell? ⟨g, 2, none⟩ = some (.string R1.b) ∧ W.cell? ⟨g, 1, none⟩ = some (.int .i64 R1.most) ∧ Ix w W g R1) (by kernel_rfl) (hfull.out _ hIW) (fun hHeld => ?_)
    generalize hWg : World.drew _ = W at hIW hHeld ⊢
    clear hWg
    refine wpAnyH_take (i := 0) (oi := { dst := some 72, op := Op.move (Operand.tmp 0), type := 61, pos := "ref.go:56", after := #[], guard := none }) (v := ?vv1) rfl (by kernel_rfl) (by kernel_rfl) (by kernel_rfl) (fun _ _ _ h => h) (Or.inl ⟨by rfl, ?hy1⟩) (by assumption) ?_
    case hy1 => (intro w hSw; (try dsimp only at hSw); go_simp; all_goals with_reducible rfl)
    try simp only [Act.put, List.setIfInBounds_toArray, List.set_cons_zero, List.set_cons_succ]
    refine wpAnyH_take (i := 1) (oi := { dst := some 73, op := Op.nilCheck (Operand.tmp 72), type := 0, pos := "ref.go:56", after := #[{ on := 0, ground := Ground.data }], guard := none }) (v := ?vv2) rfl (by kernel_rfl) (by kernel_rfl) (by kernel_rfl) (fun _ _ _ h => h) (Or.inl ⟨by rfl, ?hy2⟩) (by assumption) ?_
    case hy2 => (intro w hSw; (try dsimp only at hSw); go_simp; all_goals with_reducible rfl)
    try simp only [Act.put, List.setIfInBounds_toArray, List.set_cons_zero, List.set_cons_succ]
    refine wpAnyH_take (i := 2) (oi := { dst := some 74, op := Op.fieldAddr 76 (Operand.tmp 73) 2, type := 0, pos := "ref.go:56", after := #[{ on := 1, ground := Ground.data }], guard := none }) (v := ?vv3) rfl (by kernel_rfl) (by kernel_rfl) (by kernel_rfl) (fun _ _ _ h => h) (Or.inl ⟨by rfl, ?hy3⟩) (by assumption) ?_
    case hy3 => (intro w hSw; (try dsimp only at hSw); go_simp; all_goals with_reducible rfl)
    try simp only [Act.put, List.setIfInBounds_toArray, List.set_cons_zero, List.set_cons_succ]
    refine wpAnyH_take (i := 3) (oi := { dst := some 75, op := Op.load 9 (Operand.tmp 74), type := 9, pos := "ref.go:56", after := #[{ on := 2, ground := Ground.data }], guard := none }) (v := ?vv4) rfl (by kernel_rfl) (by kernel_rfl) (by kernel_rfl) (fun _ _ _ h => h) (Or.inl ⟨by rfl, ?hy4⟩) (by assumption) ?_
    case hy4 => (intro w hSw; (try dsimp only at hSw); go_simp; all_goals with_reducible rfl)
    try simp only [Act.put, List.setIfInBounds_toArray, List.set_cons_zero, List.set_cons_succ]
    refine wpAnyH_take (i := 4) (oi := { dst := some 76, op := Op.move (Operand.tmp 0), type := 61, pos := "ref.go:56", after := #[], guard := none }) (v := ?vv5) rfl (by kernel_rfl) (by kernel_rfl) (by kernel_rfl) (fun _ _ _ h => h) (Or.inl ⟨by rfl, ?hy5⟩) (by assumption) ?_
    case hy5 => (intro w hSw; (try dsimp only at hSw); go_simp; all_goals with_reducible rfl)
    try simp only [Act.put, List.setIfInBounds_toArray, List.set_cons_zero, List.set_cons_succ]
    refine wpAnyH_take (i := 5) (oi := { dst := some 77, op := Op.nilCheck (Operand.tmp 76), type := 0, pos := "ref.go:56", after := #[{ on := 4, ground := Ground.data }], guard := none }) (v := ?vv6) rfl (by kernel_rfl) (by kernel_rfl) (by kernel_rfl) (fun _ _ _ h => h) (Or.inl ⟨by rfl, ?hy6⟩) (by assumption) ?_
    case hy6 => (intro w hSw; (try dsimp only at hSw); go_simp; all_goals with_reducible rfl)
    try simp only [Act.put, List.setIfInBounds_toArray, List.set_cons_zero, List.set_cons_succ]
    refine wpAnyH_take (i := 6) (oi := { dst := some 78, op := Op.fieldAddr 76 (Operand.tmp 77) 1, type := 0, pos := "ref.go:56", after := #[{ on := 5, ground := Ground.data }], guard := none }) (v := ?vv7) rfl (by kernel_rfl) (by kernel_rfl) (by kernel_rfl) (fun _ _ _ h => h) (Or.inl ⟨by rfl, ?hy7⟩) (by assumption) ?_
    case hy7 => (intro w hSw; (try dsimp only at hSw); go_simp; all_goals with_reducible rfl)
    try simp only [Act.put, List.setIfInBounds_toArray, List.set_cons_zero, List.set_cons_succ]
    refine wpAnyH_take (i := 7) (oi := { dst := some 79, op := Op.load 2 (Operand.tmp 78), type := 2, pos := "ref.go:56", after := #[{ on := 6, ground := Ground.data }], guard := none }) (v := ?vv8) rfl (by kernel_rfl) (by kernel_rfl) (by kernel_rfl) (fun _ _ _ h => h) (Or.inl ⟨by rfl, ?hy8⟩) (by assumption) ?_
    case hy8 => (intro w hSw; (try dsimp only at hSw); go_simp; all_goals with_reducible rfl)
    try simp only [Act.put, List.setIfInBounds_toArray, List.set_cons_zero, List.set_cons_succ]
    refine wpAnyH_ready (rs := [8, 13, 14]) (by kernel_rfl) (by simp) ?_
    refine AllReadyH.cons (o := { dst := some 80, op := Op.call { callee := Callee.value (Operand.func 34), args := #[Operand.tmp 75, Operand.tmp 79], argTypes := #[9, 2] }, type := 78, pos := "ref.go:56", after := #[{ on := 3, ground := Ground.data }, { on := 7, ground := Ground.data }], guard := none }) rfl (fun K hK => ?_) ?_
    · go_simp
      refine (hread.out _ hIW).mono ?_
      rintro e' Wx ⟨pb, pl, pc, rfl, hP, hPn, hO, hIWx⟩
      go_wp2_with fail
      refine hK.out _ _ (hfull.out _ hIWx) (fun hHeld => ?_)
      clear hK K hO hIW
      try simp only [Act.put, List.setIfInBounds_toArray, List.set_cons_zero, List.set_cons_succ]
      refine wpAnyH_take (i := 9) (oi := { dst := some 71, op := Op.move (Operand.tmp 80), type := 78, pos := "ref.go:56", after := #[{ on := 8, ground := Ground.data }], guard := none }) (v := ?vv9) rfl (by kernel_rfl) (by kernel_rfl) (by kernel_rfl) (fun _ _ _ h => h) (Or.inl ⟨by rfl, ?hy9⟩) (by assumption) ?_
      case hy9 => (intro w hSw; (try dsimp only at hSw); go_simp; all_goals with_reducible rfl)
      try simp only [Act.put, List.setIfInBounds_toArray, List.set_cons_zero, List.set_cons_succ]
      refine wpAnyH_take (i := 10) (oi := { dst := some 81, op := Op.extract (Operand.tmp 71) 0, type := 28, pos := "ref.go:56", after := #[{ on := 9, ground := Ground.data }], guard := none }) (v := ?vv10) rfl (by kernel_rfl) (by kernel_rfl) (by kernel_rfl) (fun _ _ _ h => h) (Or.inl ⟨by rfl, ?hy10⟩) (by assumption) ?_
      case hy10 => (intro w hSw; (try dsimp only at hSw); go_simp; all_goals with_reducible rfl)
      try simp only [Act.put, List.setIfInBounds_toArray, List.set_cons_zero, List.set_cons_succ]
      refine wpAnyH_take (i := 11) (oi := { dst := some 82, op := Op.extract (Operand.tmp 71) 1, type := 3, pos := "ref.go:56", after := #[{ on := 9, ground := Ground.data }, { on := 15, ground := Ground.gcOnly Departure.lateStores }], guard := none }) (v := ?vv11) rfl (by kernel_rfl) (by kernel_rfl) (by kernel_rfl) (fun _ _ _ h => h) (Or.inl ⟨by rfl, ?hy11⟩) (by assumption) ?_
      case hy11 => (intro w hSw; (try dsimp only at hSw); go_simp; all_goals with_reducible rfl)
      try simp only [Act.put, List.setIfInBounds_toArray, List.set_cons_zero, List.set_cons_succ]
      refine wpAnyH_take (i := 12) (oi := { dst := some 83, op := Op.extract (Operand.tmp 71) 2, type := 30, pos := "ref.go:56", after := #[{ on := 9, ground := Ground.data }, { on := 16, ground := Ground.gcOnly Departure.lateStores }], guard := none }) (v := ?vv12) rfl (by kernel_rfl) (by kernel_rfl) (by kernel_rfl) (fun _ _ _ h => h) (Or.inl ⟨by rfl, ?hy12⟩) (by assumption) ?_
      case hy12 => (intro w hSw; (try dsimp only at hSw); go_simp; all_goals with_reducible rfl)
      try simp only [Act.put, List.setIfInBounds_toArray, List.set_cons_zero, List.set_cons_succ]
      refine wpAnyH_ready (rs := [13, 14]) (by kernel_rfl) (by simp) ?_
      refine AllReadyH.cons (o := { dst := some 6, op := Op.alloc 28, type := 0, pos := "ref.go:56", after := #[], guard := none }) rfl (fun K hK => ?_) ?_
      · go_simp
        obtain ⟨Wxx, hV⟩ : ∃ Wxx, Wxx = Wx.alloc (.cells #[.int .i64 0, .int .i64 0, .int .i64 0, .string ⟨#[]⟩, .int .i64 0, .int .i64 0, .bool false, .int .i64 0, .int .i64 0, .int .i64 0, .slice none 0 0] 28) := ⟨_, rfl⟩
        obtain ⟨a5, ha5⟩ : ∃ a5, a5 = Wx.heap.size := ⟨_, rfl⟩
        have h5 : Wxx.heap[a5]? = some (.cells #[.int .i64 0, .int .i64 0, .int .i64 0, .string ⟨#[]⟩, .int .i64 0, .int .i64 0, .bool false, .int .i64 0, .int .i64 0, .int .i64 0, .slice none 0 0] 28 (0, 0)) := by rw [hV, ha5]; exact heap_alloc_new _ _
        have hIWxx : Ix w Wxx g R1 := by rw [hV]; exact hIWx.alloc _
        have hO : ∀ k, k < Wx.heap.size → Wxx.heap[k]? = Wx.heap[k]? := fun k hk => by rw [hV]; exact heap_alloc_old _ _ hk
        have hb5 : w.heap.size + 2 ≤ a5 := by rw [ha5]; exact hIWx.two
        rw [← hV, ← ha5]
        clear hV ha5
        refine hK.out _ _ (hfull.out _ hIWxx) (fun hHeld => ?_)
        replace hP := hP.below fun k _ hlt => hO k hlt
        clear hK K hO hIWx
        try simp only [Act.put, List.setIfInBounds_toArray, List.set_cons_zero, List.set_cons_succ]
        refine wpAnyH_ready (rs := [14]) (by kernel_rfl) (by simp) ?_
        refine AllReadyH.cons (o := { dst := some 8, op := Op.alloc 30, type := 0, pos := "ref.go:56", after := #[], guard := none }) rfl (fun K hK => ?_) AllReadyH.nil
        go_simp
        obtain ⟨Wxxx, hV⟩ : ∃ Wxxx, Wxxx = Wxx.alloc (.cells #[.int .i64 0, .int .i64 0] 30) := ⟨_, rfl⟩
        obtain ⟨a7, ha7⟩ : ∃ a7, a7 = Wxx.heap.size := ⟨_, rfl⟩
        have h7 : Wxxx.heap[a7]? = some (.cells #[.int .i64 0, .int .i64 0] 30 (0, 0)) := by rw [hV, ha7]; exact heap_alloc_new _ _
        have hIWxxx : Ix w Wxxx g R1 := by rw [hV]; exact hIWxx.alloc _
        have hO : ∀ k, k < Wxx.heap.size → Wxxx.heap[k]? = Wxx.heap[k]? := fun k hk => by rw [hV]; exact heap_alloc_old _ _ hk
        have hb7 : w.heap.size + 2 ≤ a7 := by rw [ha7]; exact hIWxx.two
        rw [← hV, ← ha7]
        clear hV ha7
        refine hK.out _ _ (hfull.out _ hIWxxx) (fun hHeld => ?_)
        replace h5 := (hO _ (Array.getElem?_eq_some_iff.1 h5).1).trans h5
        replace hP := hP.below fun k _ hlt => hO k hlt
        clear hK K hO hIWxx
        try simp only [Act.put, List.setIfInBounds_toArray, List.set_cons_zero, List.set_cons_succ]
        obtain ⟨z0, z1, z2, z3, z4, z5, z6, z7, z8, z9, z10⟩ := FB.cells (f := Fr.zero) (p := .slice none 0 0) h5
        obtain ⟨y0, y1, y2, y3, y4, y5, y6, y7, y8, y9, y10⟩ := FB.frozens (f := Fr.zero) (p := .slice none 0 0) h5
        simp only [Fr.zero] at z0 z1 z2 z3 z4 z5 z6 z7 z8 z9 z10
        refine wpAnyH_ready (rs := [15]) (by kernel_rfl) (by simp) ?_
        refine AllReadyH.cons (o := { dst := none, op := Op.store 28 (Operand.tmp 6) (Operand.tmp 81), type := 0, pos := "ref.go:56", after := #[{ on := 13, ground := Ground.data }, { on := 10, ground := Ground.data }, { on := 8, ground := Ground.chain }, { on := 0, ground := Ground.phase }, { on := 1, ground := Ground.phase }, { on := 2, ground := Ground.phase }, { on := 3, ground := Ground.phase }, { on := 4, ground := Ground.phase }, { on := 5, ground := Ground.phase }, { on := 6, ground := Ground.phase }, { on := 7, ground := Ground.phase }, { on := 8, ground := Ground.phase }, { on := 9, ground := Ground.phase }, { on := 10, ground := Ground.phase }, { on := 11, ground := Ground.textOnly Departure.lateStores }, { on := 12, ground := Ground.textOnly Departure.lateStores }, { on := 13, ground := Ground.phase }, { on := 14, ground := Ground.phase }], guard := none }) rfl (fun K hK => ?_) AllReadyH.nil
        go_simp
        change K _ (sets Wxxx a5 (fsets f (.slice pb pl pc)))
        have hne57 : a7 ≠ a5 := fun e => by rw [e, h5] at h7; simp at h7
        obtain ⟨x1, x2, x3, x4⟩ := hst5.out Wxxx a5 a7 pb pl pc h5 h7 hb5 hne57 hP hIWxxx
        refine hK.out _ _ (hfull.out _ x4) (fun hHeld => ?_)
        clear z0 z1 z2 z3 z4 z5 z6 z7 z8 z9 z10 y0 y1 y2 y3 y4 y5 y6 y7 y8 y9 y10 hK K
        generalize hWn : sets Wxxx a5 (fsets f (.slice pb pl pc)) = Wn at x1 x2 x3 x4 hHeld ⊢
        clear hWn
        try simp only [Act.put, List.setIfInBounds_toArray, List.set_cons_zero, List.set_cons_succ]
        refine wpAnyH_take (i := 16) (oi := { dst := some 7, op := Op.assign (Operand.tmp 82), type := 3, pos := "ref.go:56", after := #[{ on := 11, ground := Ground.data }, { on := 15, ground := Ground.chain }, { on := 0, ground := Ground.phase }, { on := 1, ground := Ground.phase }, { on := 2, ground := Ground.phase }, { on := 3, ground := Ground.phase }, { on := 4, ground := Ground.phase }, { on := 5, ground := Ground.phase }, { on := 6, ground := Ground.phase }, { on := 7, ground := Ground.phase }, { on := 8, ground := Ground.phase }, { on := 9, ground := Ground.phase }, { on := 10, ground := Ground.phase }, { on := 11, ground := Ground.phase }, { on := 12, ground := Ground.textOnly Departure.lateStores }, { on := 13, ground := Ground.phase }, { on := 14, ground := Ground.phase }, { on := 15, ground := Ground.phase }], guard := none }) (v := ?vv13) rfl (by kernel_rfl) (by kernel_rfl) (by kernel_rfl) (fun _ _ _ h => h) (Or.inl ⟨by rfl, ?hy13⟩) (by assumption) ?_
        case hy13 => (intro w hSw; (try dsimp only at hSw); go_simp; all_goals with_reducible rfl)
        try simp only [Act.put, List.setIfInBounds_toArray, List.set_cons_zero, List.set_cons_succ]
        have q0 := cell_of_row _ _ 0 _ _ _ x2
        have q1 := cell_of_row _ _ 1 _ _ _ x2
        have q2 : Wn.frozen? ⟨a7, 0, none⟩ = false := frozen_row x2 0
        have q3 : Wn.frozen? ⟨a7, 1, none⟩ = false := frozen_row x2 1
        simp only [List.getElem?_toArray, List.getElem?_cons_succ, List.getElem?_cons_zero] at q0 q1
        refine wpAnyH_ready (rs := [17]) (by kernel_rfl) (by simp) ?_
        refine AllReadyH.cons (o := { dst := none, op := Op.store 30 (Operand.tmp 8) (Operand.tmp 83), type := 0, pos := "ref.go:56", after := #[{ on := 14, ground := Ground.data }, { on := 12, ground := Ground.data }, { on := 16, ground := Ground.chain }, { on := 0, ground := Ground.phase }, { on := 1, ground := Ground.phase }, { on := 2, ground := Ground.phase }, { on := 3, ground := Ground.phase }, { on := 4, ground := Ground.phase }, { on := 5, ground := Ground.phase }, { on := 6, ground := Ground.phase }, { on := 7, ground := Ground.phase }, { on := 8, ground := Ground.phase }, { on := 9, ground := Ground.phase }, { on := 10, ground := Ground.phase }, { on := 11, ground := Ground.phase }, { on := 12, ground := Ground.phase }, { on := 13, ground := Ground.phase }, { on := 14, ground := Ground.phase }, { on := 15, ground := Ground.phase }, { on := 16, ground := Ground.phase }], guard := none }) rfl (fun K hK => ?_) AllReadyH.nil
        go_simp
        change K _ (sets Wn a7 [(0, .int .i64 c), (1, .int .i64 x)])
        obtain ⟨t1, t2, t3, t4⟩ := hst7.out Wn a5 a7 pb pl pc x1 x2 hb7 hne57 x3 x4
        refine hK.out _ _ (hfull.out _ t4) (fun hHeld => ?_)
        clear hK K
        try simp only [Act.put, List.setIfInBounds_toArray, List.set_cons_zero, List.set_cons_succ]
        refine wpAnyH_done (by kernel_rfl) ?_ _
        go_wp2_with fail
        go_meet
        case rel => exact ⟨a5, a7, pb, pl, pc, rfl, rfl, rfl, t1, t2, hb5, hb7, hne57, t3, hPn, t4⟩
      refine AllReadyH.cons (o := { dst := some 8, op := Op.alloc 30, type := 0, pos := "ref.go:56", after := #[], guard := none }) rfl (fun K hK => ?_) AllReadyH.nil
      go_simp
      obtain ⟨Wxx, hV⟩ : ∃ Wxx, Wxx = Wx.alloc (.cells #[.int .i64 0, .int .i64 0] 30) := ⟨_, rfl⟩
      obtain ⟨a7, ha7⟩ : ∃ a7, a7 = Wx.heap.size := ⟨_, rfl⟩
      have h7 : Wxx.heap[a7]? = some (.cells #[.int .i64 0, .int .i64 0] 30 (0, 0)) := by rw [hV, ha7]; exact heap_alloc_new _ _
      have hIWxx : Ix w Wxx g R1 := by rw [hV]; exact hIWx.alloc _
      have hO : ∀ k, k < Wx.heap.size → Wxx.heap[k]? = Wx.heap[k]? := fun k hk => by rw [hV]; exact heap_alloc_old _ _ hk
      have hb7 : w.heap.size + 2 ≤ a7 := by rw [ha7]; exact hIWx.two
      rw [← hV, ← ha7]
      clear hV ha7
      refine hK.out _ _ (hfull.out _ hIWxx) (fun hHeld => ?_)
      replace hP := hP.below fun k _ hlt => hO k hlt
      clear hK K hO hIWx
      try simp only [Act.put, List.setIfInBounds_toArray, List.set_cons_zero, List.set_cons_succ]
      refine wpAnyH_ready (rs := [13]) (by kernel_rfl) (by simp) ?_
      refine AllReadyH.cons (o := { dst := some 6, op := Op.alloc 28, type := 0, pos := "ref.go:56", after := #[], guard := none }) rfl (fun K hK => ?_) AllReadyH.nil
      go_simp
      obtain ⟨Wxxx, hV⟩ : ∃ Wxxx, Wxxx = Wxx.alloc (.cells #[.int .i64 0, .int .i64 0, .int .i64 0, .string ⟨#[]⟩, .int .i64 0, .int .i64 0, .bool false, .int .i64 0, .int .i64 0, .int .i64 0, .slice none 0 0] 28) := ⟨_, rfl⟩
      obtain ⟨a5, ha5⟩ : ∃ a5, a5 = Wxx.heap.size := ⟨_, rfl⟩
      have h5 : Wxxx.heap[a5]? = some (.cells #[.int .i64 0, .int .i64 0, .int .i64 0, .string ⟨#[]⟩, .int .i64 0, .int .i64 0, .bool false, .int .i64 0, .int .i64 0, .int .i64 0, .slice none 0 0] 28 (0, 0)) := by rw [hV, ha5]; exact heap_alloc_new _ _
      have hIWxxx : Ix w Wxxx g R1 := by rw [hV]; exact hIWxx.alloc _
      have hO : ∀ k, k < Wxx.heap.size → Wxxx.heap[k]? = Wxx.heap[k]? := fun k hk => by rw [hV]; exact heap_alloc_old _ _ hk
      have hb5 : w.heap.size + 2 ≤ a5 := by rw [ha5]; exact hIWxx.two
      rw [← hV, ← ha5]
      clear hV ha5
      refine hK.out _ _ (hfull.out _ hIWxxx) (fun hHeld => ?_)
      replace h7 := (hO _ (Array.getElem?_eq_some_iff.1 h7).1).trans h7
      replace hP := hP.below fun k _ hlt => hO k hlt
      clear hK K hO hIWxx
      try simp only [Act.put, List.setIfInBounds_toArray, List.set_cons_zero, List.set_cons_succ]
      obtain ⟨z0, z1, z2, z3, z4, z5, z6, z7, z8, z9, z10⟩ := FB.cells (f := Fr.zero) (p := .slice none 0 0) h5
      obtain ⟨y0, y1, y2, y3, y4, y5, y6, y7, y8, y9, y10⟩ := FB.frozens (f := Fr.zero) (p := .slice none 0 0) h5
      simp only [Fr.zero] at z0 z1 z2 z3 z4 z5 z6 z7 z8 z9 z10
      refine wpAnyH_ready (rs := [15]) (by kernel_rfl) (by simp) ?_
      refine AllReadyH.cons (o := { dst := none, op := Op.store 28 (Operand.tmp 6) (Operand.tmp 81), type := 0, pos := "ref.go:56", after := #[{ on := 13, ground := Ground.data }, { on := 10, ground := Ground.data }, { on := 8, ground := Ground.chain }, { on := 0, ground := Ground.phase }, { on := 1, ground := Ground.phase }, { on := 2, ground := Ground.phase }, { on := 3, ground := Ground.phase }, { on := 4, ground := Ground.phase }, { on := 5, ground := Ground.phase }, { on := 6, ground := Ground.phase }, { on := 7, ground := Ground.phase }, { on := 8, ground := Ground.phase }, { on := 9, ground := Ground.phase }, { on := 10, ground := Ground.phase }, { on := 11, ground := Ground.textOnly Departure.lateStores }, { on := 12, ground := Ground.textOnly Departure.lateStores }, { on := 13, ground := Ground.phase }, { on := 14, ground := Ground.phase }], guard := none }) rfl (fun K hK => ?_) AllReadyH.nil
      go_simp
      change K _ (sets Wxxx a5 (fsets f (.slice pb pl pc)))
      have hne57 : a7 ≠ a5 := fun e => by rw [e, h5] at h7; simp at h7
      obtain ⟨x1, x2, x3, x4⟩ := hst5.out Wxxx a5 a7 pb pl pc h5 h7 hb5 hne57 hP hIWxxx
      refine hK.out _ _ (hfull.out _ x4) (fun hHeld => ?_)
      clear z0 z1 z2 z3 z4 z5 z6 z7 z8 z9 z10 y0 y1 y2 y3 y4 y5 y6 y7 y8 y9 y10 hK K
      generalize hWn : sets Wxxx a5 (fsets f (.slice pb pl pc)) = Wn at x1 x2 x3 x4 hHeld ⊢
      clear hWn
      try simp only [Act.put, List.setIfInBounds_toArray, List.set_cons_zero, List.set_cons_succ]
      refine wpAnyH_take (i := 16) (oi := { dst := some 7, op := Op.assign (Operand.tmp 82), type := 3, pos := "ref.go:56", after := #[{ on := 11, ground := Ground.data }, { on := 15, ground := Ground.chain }, { on := 0, ground := Ground.phase }, { on := 1, ground := Ground.phase }, { on := 2, ground := Ground.phase }, { on := 3, ground := Ground.phase }, { on := 4, ground := Ground.phase }, { on := 5, ground := Ground.phase }, { on := 6, ground := Ground.phase }, { on := 7, ground := Ground.phase }, { on := 8, ground := Ground.phase }, { on := 9, ground := Ground.phase }, { on := 10, ground := Ground.phase }, { on := 11, ground := Ground.phase }, { on := 12, ground := Ground.textOnly Departure.lateStores }, { on := 13, ground := Ground.phase }, { on := 14, ground := Ground.phase }, { on := 15, ground := Ground.phase }], guard := none }) (v := ?vv14) rfl (by kernel_rfl) (by kernel_rfl) (by kernel_rfl) (fun _ _ _ h => h) (Or.inl ⟨by rfl, ?hy14⟩) (by assumption) ?_
      case hy14 => (intro w hSw; (try dsimp only at hSw); go_simp; all_goals with_reducible rfl)
      try simp only [Act.put, List.setIfInBounds_toArray, List.set_cons_zero, List.set_cons_succ]
      have q0 := cell_of_row _ _ 0 _ _ _ x2
      have q1 := cell_of_row _ _ 1 _ _ _ x2
      have q2 : Wn.frozen? ⟨a7, 0, none⟩ = false := frozen_row x2 0
      have q3 : Wn.frozen? ⟨a7, 1, none⟩ = false := frozen_row x2 1
      simp only [List.getElem?_toArray, List.getElem?_cons_succ, List.getElem?_cons_zero] at q0 q1
      refine wpAnyH_ready (rs := [17]) (by kernel_rfl) (by simp) ?_
      refine AllReadyH.cons (o := { dst := none, op := Op.store 30 (Operand.tmp 8) (Operand.tmp 83), type := 0, pos := "ref.go:56", after := #[{ on := 14, ground := Ground.data }, { on := 12, ground := Ground.data }, { on := 16, ground := Ground.chain }, { on := 0, ground := Ground.phase }, { on := 1, ground := Ground.phase }, { on := 2, ground := Ground.phase }, { on := 3, ground := Ground.phase }, { on := 4, ground := Ground.phase }, { on := 5, ground := Ground.phase }, { on := 6, ground := Ground.phase }, { on := 7, ground := Ground.phase }, { on := 8, ground := Ground.phase }, { on := 9, ground := Ground.phase }, { on := 10, ground := Ground.phase }, { on := 11, ground := Ground.phase }, { on := 12, ground := Ground.phase }, { on := 13, ground := Ground.phase }, { on := 14, ground := Ground.phase }, { on := 15, ground := Ground.phase }, { on := 16, ground := Ground.phase }], guard := none }) rfl (fun K hK => ?_) AllReadyH.nil
      go_simp
      change K _ (sets Wn a7 [(0, .int .i64 c), (1, .int .i64 x)])
      obtain ⟨t1, t2, t3, t4⟩ := hst7.out Wn a5 a7 pb pl pc x1 x2 hb7 hne57 x3 x4
      refine hK.out _ _ (hfull.out _ t4) (fun hHeld => ?_)
      clear hK K
      try simp only [Act.put, List.setIfInBounds_toArray, List.set_cons_zero, List.set_cons_succ]
      refine wpAnyH_done (by kernel_rfl) ?_ _
      go_wp2_with fail
      go_meet
      case rel => exact ⟨a5, a7, pb, pl, pc, rfl, rfl, rfl, t1, t2, hb5, hb7, hne57, t3, hPn, t4⟩
    refine AllReadyH.cons (o := { dst := some 6, op := Op.alloc 28, type := 0, pos := "ref.go:56", after := #[], guard := none }) rfl (fun K hK => ?_) ?_
    · go_simp
      obtain ⟨Wx, hV⟩ : ∃ Wx, Wx = W.alloc (.cells #[.int .i64 0, .int .i64 0, .int .i64 0, .string ⟨#[]⟩, .int .i64 0, .int .i64 0, .bool false, .int .i64 0, .int .i64 0, .int .i64 0, .slice none 0 0] 28) := ⟨_, rfl⟩
      obtain ⟨a5, ha5⟩ : ∃ a5, a5 = W.heap.size := ⟨_, rfl⟩
      have h5 : Wx.heap[a5]? = some (.cells #[.int .i64 0, .int .i64 0, .int .i64 0, .string ⟨#[]⟩, .int .i64 0, .int .i64 0, .bool false, .int .i64 0, .int .i64 0, .int .i64 0, .slice none 0 0] 28 (0, 0)) := by rw [hV, ha5]; exact heap_alloc_new _ _
      have hIWx : Ix w Wx g R1 := by rw [hV]; exact hIW.alloc _
      have hO : ∀ k, k < W.heap.size → Wx.heap[k]? = W.heap[k]? := fun k hk => by rw [hV]; exact heap_alloc_old _ _ hk
      have hb5 : w.heap.size + 2 ≤ a5 := by rw [ha5]; exact hIW.two
      rw [← hV, ← ha5]
      clear hV ha5
      refine hK.out _ _ (hfull.out _ hIWx) (fun hHeld => ?_)
      clear hK K hO hIW
      try simp only [Act.put, List.setIfInBounds_toArray, List.set_cons_zero, List.set_cons_succ]
      refine wpAnyH_ready (rs := [8, 14]) (by kernel_rfl) (by simp) ?_
      refine AllReadyH.cons (o := { dst := some 80, op := Op.call { callee := Callee.value (Operand.func 34), args := #[Operand.tmp 75, Operand.tmp 79], argTypes := #[9, 2] }, type := 78, pos := "ref.go:56", after := #[{ on := 3, ground := Ground.data }, { on := 7, ground := Ground.data }], guard := none }) rfl (fun K hK => ?_) ?_
      · go_simp
        refine (hread.out _ hIWx).mono ?_
        rintro e' Wxx ⟨pb, pl, pc, rfl, hP, hPn, hO, hIWxx⟩
        go_wp2_with fail
        refine hK.out _ _ (hfull.out _ hIWxx) (fun hHeld => ?_)
        replace h5 := (hO _ (Array.getElem?_eq_some_iff.1 h5).1).trans h5
        clear hK K hO hIWx
        try simp only [Act.put, List.setIfInBounds_toArray, List.set_cons_zero, List.set_cons_succ]
        refine wpAnyH_take (i := 9) (oi := { dst := some 71, op := Op.move (Operand.tmp 80), type := 78, pos := "ref.go:56", after := #[{ on := 8, ground := Ground.data }], guard := none }) (v := ?vv15) rfl (by kernel_rfl) (by kernel_rfl) (by kernel_rfl) (fun _ _ _ h => h) (Or.inl ⟨by rfl, ?hy15⟩) (by assumption) ?_
        case hy15 => (intro w hSw; (try dsimp only at hSw); go_simp; all_goals with_reducible rfl)
        try simp only [Act.put, List.setIfInBounds_toArray, List.set_cons_zero, List.set_cons_succ]
        refine wpAnyH_take (i := 10) (oi := { dst := some 81, op := Op.extract (Operand.tmp 71) 0, type := 28, pos := "ref.go:56", after := #[{ on := 9, ground := Ground.data }], guard := none }) (v := ?vv16) rfl (by kernel_rfl) (by kernel_rfl) (by kernel_rfl) (fun _ _ _ h => h) (Or.inl ⟨by rfl, ?hy16⟩) (by assumption) ?_
        case hy16 => (intro w hSw; (try dsimp only at hSw); go_simp; all_goals with_reducible rfl)
        try simp only [Act.put, List.setIfInBounds_toArray, List.set_cons_zero, List.set_cons_succ]
        refine wpAnyH_take (i := 11) (oi := { dst := some 82, op := Op.extract (Operand.tmp 71) 1, type := 3, pos := "ref.go:56", after := #[{ on := 9, ground := Ground.data }, { on := 15, ground := Ground.gcOnly Departure.lateStores }], guard := none }) (v := ?vv17) rfl (by kernel_rfl) (by kernel_rfl) (by kernel_rfl) (fun _ _ _ h => h) (Or.inl ⟨by rfl, ?hy17⟩) (by assumption) ?_
        case hy17 => (intro w hSw; (try dsimp only at hSw); go_simp; all_goals with_reducible rfl)
        try simp only [Act.put, List.setIfInBounds_toArray, List.set_cons_zero, List.set_cons_succ]
        refine wpAnyH_take (i := 12) (oi := { dst := some 83, op := Op.extract (Operand.tmp 71) 2, type := 30, pos := "ref.go:56", after := #[{ on := 9, ground := Ground.data }, { on := 16, ground := Ground.gcOnly Departure.lateStores }], guard := none }) (v := ?vv18) rfl (by kernel_rfl) (by kernel_rfl) (by kernel_rfl) (fun _ _ _ h => h) (Or.inl ⟨by rfl, ?hy18⟩) (by assumption) ?_
        case hy18 => (intro w hSw; (try dsimp only at hSw); go_simp; all_goals with_reducible rfl)
        try simp only [Act.put, List.setIfInBounds_toArray, List.set_cons_zero, List.set_cons_succ]
        refine wpAnyH_ready (rs := [14]) (by kernel_rfl) (by simp) ?_
        refine AllReadyH.cons (o := { dst := some 8, op := Op.alloc 30, type := 0, pos := "ref.go:56", after := #[], guard := none }) rfl (fun K hK => ?_) AllReadyH.nil
        go_simp
        obtain ⟨Wxxx, hV⟩ : ∃ Wxxx, Wxxx = Wxx.alloc (.cells #[.int .i64 0, .int .i64 0] 30) := ⟨_, rfl⟩
        obtain ⟨a7, ha7⟩ : ∃ a7, a7 = Wxx.heap.size := ⟨_, rfl⟩
        have h7 : Wxxx.heap[a7]? = some (.cells #[.int .i64 0, .int .i64 0] 30 (0, 0)) := by rw [hV, ha7]; exact heap_alloc_new _ _
        have hIWxxx : Ix w Wxxx g R1 := by rw [hV]; exact hIWxx.alloc _
        have hO : ∀ k, k < Wxx.heap.size → Wxxx.heap[k]? = Wxx.heap[k]? := fun k hk => by rw [hV]; exact heap_alloc_old _ _ hk
        have hb7 : w.heap.size + 2 ≤ a7 := by rw [ha7]; exact hIWxx.two
        rw [← hV, ← ha7]
        clear hV ha7
        refine hK.out _ _ (hfull.out _ hIWxxx) (fun hHeld => ?_)
        replace h5 := (hO _ (Array.getElem?_eq_some_iff.1 h5).1).trans h5
        replace hP := hP.below fun k _ hlt => hO k hlt
        clear hK K hO hIWxx
        try simp only [Act.put, List.setIfInBounds_toArray, List.set_cons_zero, List.set_cons_succ]
        obtain ⟨z0, z1, z2, z3, z4, z5, z6, z7, z8, z9, z10⟩ := FB.cells (f := Fr.zero) (p := .slice none 0 0) h5
        obtain ⟨y0, y1, y2, y3, y4, y5, y6, y7, y8, y9, y10⟩ := FB.frozens (f := Fr.zero) (p := .slice none 0 0) h5
        simp only [Fr.zero] at z0 z1 z2 z3 z4 z5 z6 z7 z8 z9 z10
        refine wpAnyH_ready (rs := [15]) (by kernel_rfl) (by simp) ?_
        refine AllReadyH.cons (o := { dst := none, op := Op.store 28 (Operand.tmp 6) (Operand.tmp 81), type := 0, pos := "ref.go:56", after := #[{ on := 13, ground := Ground.data }, { on := 10, ground := Ground.data }, { on := 8, ground := Ground.chain }, { on := 0, ground := Ground.phase }, { on := 1, ground := Ground.phase }, { on := 2, ground := Ground.phase }, { on := 3, ground := Ground.phase }, { on := 4, ground := Ground.phase }, { on := 5, ground := Ground.phase }, { on := 6, ground := Ground.phase }, { on := 7, ground := Ground.phase }, { on := 8, ground := Ground.phase }, { on := 9, ground := Ground.phase }, { on := 10, ground := Ground.phase }, { on := 11, ground := Ground.textOnly Departure.lateStores }, { on := 12, ground := Ground.textOnly Departure.lateStores }, { on := 13, ground := Ground.phase }, { on := 14, ground := Ground.phase }], guard := none }) rfl (fun K hK => ?_) AllReadyH.nil
        go_simp
        change K _ (sets Wxxx a5 (fsets f (.slice pb pl pc)))
        have hne57 : a7 ≠ a5 := fun e => by rw [e, h5] at h7; simp at h7
        obtain ⟨x1, x2, x3, x4⟩ := hst5.out Wxxx a5 a7 pb pl pc h5 h7 hb5 hne57 hP hIWxxx
        refine hK.out _ _ (hfull.out _ x4) (fun hHeld => ?_)
        clear z0 z1 z2 z3 z4 z5 z6 z7 z8 z9 z10 y0 y1 y2 y3 y4 y5 y6 y7 y8 y9 y10 hK K
        generalize hWn : sets Wxxx a5 (fsets f (.slice pb pl pc)) = Wn at x1 x2 x3 x4 hHeld ⊢
        clear hWn
        try simp only [Act.put, List.setIfInBounds_toArray, List.set_cons_zero, List.set_cons_succ]
        refine wpAnyH_take (i := 16) (oi := { dst := some 7, op := Op.assign (Operand.tmp 82), type := 3, pos := "ref.go:56", after := #[{ on := 11, ground := Ground.data }, { on := 15, ground := Ground.chain }, { on := 0, ground := Ground.phase }, { on := 1, ground := Ground.phase }, { on := 2, ground := Ground.phase }, { on := 3, ground := Ground.phase }, { on := 4, ground := Ground.phase }, { on := 5, ground := Ground.phase }, { on := 6, ground := Ground.phase }, { on := 7, ground := Ground.phase }, { on := 8, ground := Ground.phase }, { on := 9, ground := Ground.phase }, { on := 10, ground := Ground.phase }, { on := 11, ground := Ground.phase }, { on := 12, ground := Ground.textOnly Departure.lateStores }, { on := 13, ground := Ground.phase }, { on := 14, ground := Ground.phase }, { on := 15, ground := Ground.phase }], guard := none }) (v := ?vv19) rfl (by kernel_rfl) (by kernel_rfl) (by kernel_rfl) (fun _ _ _ h => h) (Or.inl ⟨by rfl, ?hy19⟩) (by assumption) ?_
        case hy19 => (intro w hSw; (try dsimp only at hSw); go_simp; all_goals with_reducible rfl)
        try simp only [Act.put, List.setIfInBounds_toArray, List.set_cons_zero, List.set_cons_succ]
        have q0 := cell_of_row _ _ 0 _ _ _ x2
        have q1 := cell_of_row _ _ 1 _ _ _ x2
        have q2 : Wn.frozen? ⟨a7, 0, none⟩ = false := frozen_row x2 0
        have q3 : Wn.frozen? ⟨a7, 1, none⟩ = false := frozen_row x2 1
        simp only [List.getElem?_toArray, List.getElem?_cons_succ, List.getElem?_cons_zero] at q0 q1
        refine wpAnyH_ready (rs := [17]) (by kernel_rfl) (by simp) ?_
        refine AllReadyH.cons (o := { dst := none, op := Op.store 30 (Operand.tmp 8) (Operand.tmp 83), type := 0, pos := "ref.go:56", after := #[{ on := 14, ground := Ground.data }, { on := 12, ground := Ground.data }, { on := 16, ground := Ground.chain }, { on := 0, ground := Ground.phase }, { on := 1, ground := Ground.phase }, { on := 2, ground := Ground.phase }, { on := 3, ground := Ground.phase }, { on := 4, ground := Ground.phase }, { on := 5, ground := Ground.phase }, { on := 6, ground := Ground.phase }, { on := 7, ground := Ground.phase }, { on := 8, ground := Ground.phase }, { on := 9, ground := Ground.phase }, { on := 10, ground := Ground.phase }, { on := 11, ground := Ground.phase }, { on := 12, ground := Ground.phase }, { on := 13, ground := Ground.phase }, { on := 14, ground := Ground.phase }, { on := 15, ground := Ground.phase }, { on := 16, ground := Ground.phase }], guard := none }) rfl (fun K hK => ?_) AllReadyH.nil
        go_simp
        change K _ (sets Wn a7 [(0, .int .i64 c), (1, .int .i64 x)])
        obtain ⟨t1, t2, t3, t4⟩ := hst7.out Wn a5 a7 pb pl pc x1 x2 hb7 hne57 x3 x4
        refine hK.out _ _ (hfull.out _ t4) (fun hHeld => ?_)
        clear hK K
        try simp only [Act.put, List.setIfInBounds_toArray, List.set_cons_zero, List.set_cons_succ]
        refine wpAnyH_done (by kernel_rfl) ?_ _
        go_wp2_with fail
        go_meet
        case rel => exact ⟨a5, a7, pb, pl, pc, rfl, rfl, rfl, t1, t2, hb5, hb7, hne57, t3, hPn, t4⟩
      refine AllReadyH.cons (o := { dst := some 8, op := Op.alloc 30, type := 0, pos := "ref.go:56", after := #[], guard := none }) rfl (fun K hK => ?_) AllReadyH.nil
      go_simp
      obtain ⟨Wxx, hV⟩ : ∃ Wxx, Wxx = Wx.alloc (.cells #[.int .i64 0, .int .i64 0] 30) := ⟨_, rfl⟩
      obtain ⟨a7, ha7⟩ : ∃ a7, a7 = Wx.heap.size := ⟨_, rfl⟩
      have h7 : Wxx.heap[a7]? = some (.cells #[.int .i64 0, .int .i64 0] 30 (0, 0)) := by rw [hV, ha7]; exact heap_alloc_new _ _
      have hIWxx : Ix w Wxx g R1 := by rw [hV]; exact hIWx.alloc _
      have hO : ∀ k, k < Wx.heap.size → Wxx.heap[k]? = Wx.heap[k]? := fun k hk => by rw [hV]; exact heap_alloc_old _ _ hk
      have hb7 : w.heap.size + 2 ≤ a7 := by rw [ha7]; exact hIWx.two
      rw [← hV, ← ha7]
      clear hV ha7
      refine hK.out _ _ (hfull.out _ hIWxx) (fun hHeld => ?_)
      replace h5 := (hO _ (Array.getElem?_eq_some_iff.1 h5).1).trans h5
      clear hK K hO hIWx
      try simp only [Act.put, List.setIfInBounds_toArray, List.set_cons_zero, List.set_cons_succ]
      refine wpAnyH_ready (rs := [8]) (by kernel_rfl) (by simp) ?_
      refine AllReadyH.cons (o := { dst := some 80, op := Op.call { callee := Callee.value (Operand.func 34), args := #[Operand.tmp 75, Operand.tmp 79], argTypes := #[9, 2] }, type := 78, pos := "ref.go:56", after := #[{ on := 3, ground := Ground.data }, { on := 7, ground := Ground.data }], guard := none }) rfl (fun K hK => ?_) AllReadyH.nil
      go_simp
      refine (hread.out _ hIWxx).mono ?_
      rintro e' Wxxx ⟨pb, pl, pc, rfl, hP, hPn, hO, hIWxxx⟩
      go_wp2_with fail
      refine hK.out _ _ (hfull.out _ hIWxxx) (fun hHeld => ?_)
      replace h5 := (hO _ (Array.getElem?_eq_some_iff.1 h5).1).trans h5
      replace h7 := (hO _ (Array.getElem?_eq_some_iff.1 h7).1).trans h7
      clear hK K hO hIWxx
      try simp only [Act.put, List.setIfInBounds_toArray, List.set_cons_zero, List.set_cons_succ]
      refine wpAnyH_take (i := 9) (oi := { dst := some 71, op := Op.move (Operand.tmp 80), type := 78, pos := "ref.go:56", after := #[{ on := 8, ground := Ground.data }], guard := none }) (v := ?vv20) rfl (by kernel_rfl) (by kernel_rfl) (by kernel_rfl) (fun _ _ _ h => h) (Or.inl ⟨by rfl, ?hy20⟩) (by assumption) ?_
      case hy20 => (intro w hSw; (try dsimp only at hSw); go_simp; all_goals with_reducible rfl)
      try simp only [Act.put, List.setIfInBounds_toArray, List.set_cons_zero, List.set_cons_succ]
      refine wpAnyH_take (i := 10) (oi := { dst := some 81, op := Op.extract (Operand.tmp 71) 0, type := 28, pos := "ref.go:56", after := #[{ on := 9, ground := Ground.data }], guard := none }) (v := ?vv21) rfl (by kernel_rfl) (by kernel_rfl) (by kernel_rfl) (fun _ _ _ h => h) (Or.inl ⟨by rfl, ?hy21⟩) (by assumption) ?_
      case hy21 => (intro w hSw; (try dsimp only at hSw); go_simp; all_goals with_reducible rfl)
      try simp only [Act.put, List.setIfInBounds_toArray, List.set_cons_zero, List.set_cons_succ]
      refine wpAnyH_take (i := 11) (oi := { dst := some 82, op := Op.extract (Operand.tmp 71) 1, type := 3, pos := "ref.go:56", after := #[{ on := 9, ground := Ground.data }, { on := 15, ground := Ground.gcOnly Departure.lateStores }], guard := none }) (v := ?vv22) rfl (by kernel_rfl) (by kernel_rfl) (by kernel_rfl) (fun _ _ _ h => h) (Or.inl ⟨by rfl, ?hy22⟩) (by assumption) ?_
      case hy22 => (intro w hSw; (try dsimp only at hSw); go_simp; all_goals with_reducible rfl)
      try simp only [Act.put, List.setIfInBounds_toArray, List.set_cons_zero, List.set_cons_succ]
      refine wpAnyH_take (i := 12) (oi := { dst := some 83, op := Op.extract (Operand.tmp 71) 2, type := 30, pos := "ref.go:56", after := #[{ on := 9, ground := Ground.data }, { on := 16, ground := Ground.gcOnly Departure.lateStores }], guard := none }) (v := ?vv23) rfl (by kernel_rfl) (by kernel_rfl) (by kernel_rfl) (fun _ _ _ h => h) (Or.inl ⟨by rfl, ?hy23⟩) (by assumption) ?_
      case hy23 => (intro w hSw; (try dsimp only at hSw); go_simp; all_goals with_reducible rfl)
      try simp only [Act.put, List.setIfInBounds_toArray, List.set_cons_zero, List.set_cons_succ]
      obtain ⟨z0, z1, z2, z3, z4, z5, z6, z7, z8, z9, z10⟩ := FB.cells (f := Fr.zero) (p := .slice none 0 0) h5
      obtain ⟨y0, y1, y2, y3, y4, y5, y6, y7, y8, y9, y10⟩ := FB.frozens (f := Fr.zero) (p := .slice none 0 0) h5
      simp only [Fr.zero] at z0 z1 z2 z3 z4 z5 z6 z7 z8 z9 z10
      refine wpAnyH_ready (rs := [15]) (by kernel_rfl) (by simp) ?_
      refine AllReadyH.cons (o := { dst := none, op := Op.store 28 (Operand.tmp 6) (Operand.tmp 81), type := 0, pos := "ref.go:56", after := #[{ on := 13, ground := Ground.data }, { on := 10, ground := Ground.data }, { on := 8, ground := Ground.chain }, { on := 0, ground := Ground.phase }, { on := 1, ground := Ground.phase }, { on := 2, ground := Ground.phase }, { on := 3, ground := Ground.phase }, { on := 4, ground := Ground.phase }, { on := 5, ground := Ground.phase }, { on := 6, ground := Ground.phase }, { on := 7, ground := Ground.phase }, { on := 8, ground := Ground.phase }, { on := 9, ground := Ground.phase }, { on := 10, ground := Ground.phase }, { on := 11, ground := Ground.textOnly Departure.lateStores }, { on := 12, ground := Ground.textOnly Departure.lateStores }, { on := 13, ground := Ground.phase }, { on := 14, ground := Ground.phase }], guard := none }) rfl (fun K hK => ?_) AllReadyH.nil
      go_simp
      change K _ (sets Wxxx a5 (fsets f (.slice pb pl pc)))
      have hne57 : a7 ≠ a5 := fun e => by rw [e, h5] at h7; simp at h7
      obtain ⟨x1, x2, x3, x4⟩ := hst5.out Wxxx a5 a7 pb pl pc h5 h7 hb5 hne57 hP hIWxxx
      refine hK.out _ _ (hfull.out _ x4) (fun hHeld => ?_)
      clear z0 z1 z2 z3 z4 z5 z6 z7 z8 z9 z10 y0 y1 y2 y3 y4 y5 y6 y7 y8 y9 y10 hK K
      generalize hWn : sets Wxxx a5 (fsets f (.slice pb pl pc)) = Wn at x1 x2 x3 x4 hHeld ⊢
      clear hWn
      try simp only [Act.put, List.setIfInBounds_toArray, List.set_cons_zero, List.set_cons_succ]
      refine wpAnyH_take (i := 16) (oi := { dst := some 7, op := Op.assign (Operand.tmp 82), type := 3, pos := "ref.go:56", after := #[{ on := 11, ground := Ground.data }, { on := 15, ground := Ground.chain }, { on := 0, ground := Ground.phase }, { on := 1, ground := Ground.phase }, { on := 2, ground := Ground.phase }, { on := 3, ground := Ground.phase }, { on := 4, ground := Ground.phase }, { on := 5, ground := Ground.phase }, { on := 6, ground := Ground.phase }, { on := 7, ground := Ground.phase }, { on := 8, ground := Ground.phase }, { on := 9, ground := Ground.phase }, { on := 10, ground := Ground.phase }, { on := 11, ground := Ground.phase }, { on := 12, ground := Ground.textOnly Departure.lateStores }, { on := 13, ground := Ground.phase }, { on := 14, ground := Ground.phase }, { on := 15, ground := Ground.phase }], guard := none }) (v := ?vv24) rfl (by kernel_rfl) (by kernel_rfl) (by kernel_rfl) (fun _ _ _ h => h) (Or.inl ⟨by rfl, ?hy24⟩) (by assumption) ?_
      case hy24 => (intro w hSw; (try dsimp only at hSw); go_simp; all_goals with_reducible rfl)
      try simp only [Act.put, List.setIfInBounds_toArray, List.set_cons_zero, List.set_cons_succ]
      have q0 := cell_of_row _ _ 0 _ _ _ x2
      have q1 := cell_of_row _ _ 1 _ _ _ x2
      have q2 : Wn.frozen? ⟨a7, 0, none⟩ = false := frozen_row x2 0
      have q3 : Wn.frozen? ⟨a7, 1, none⟩ = false := frozen_row x2 1
      simp only [List.getElem?_toArray, List.getElem?_cons_succ, List.getElem?_cons_zero] at q0 q1
      refine wpAnyH_ready (rs := [17]) (by kernel_rfl) (by simp) ?_
      refine AllReadyH.cons (o := { dst := none, op := Op.store 30 (Operand.tmp 8) (Operand.tmp 83), type := 0, pos := "ref.go:56", after := #[{ on := 14, ground := Ground.data }, { on := 12, ground := Ground.data }, { on := 16, ground := Ground.chain }, { on := 0, ground := Ground.phase }, { on := 1, ground := Ground.phase }, { on := 2, ground := Ground.phase }, { on := 3, ground := Ground.phase }, { on := 4, ground := Ground.phase }, { on := 5, ground := Ground.phase }, { on := 6, ground := Ground.phase }, { on := 7, ground := Ground.phase }, { on := 8, ground := Ground.phase }, { on := 9, ground := Ground.phase }, { on := 10, ground := Ground.phase }, { on := 11, ground := Ground.phase }, { on := 12, ground := Ground.phase }, { on := 13, ground := Ground.phase }, { on := 14, ground := Ground.phase }, { on := 15, ground := Ground.phase }, { on := 16, ground := Ground.phase }], guard := none }) rfl (fun K hK => ?_) AllReadyH.nil
      go_simp
      change K _ (sets Wn a7 [(0, .int .i64 c), (1, .int .i64 x)])
      obtain ⟨t1, t2, t3, t4⟩ := hst7.out Wn a5 a7 pb pl pc x1 x2 hb7 hne57 x3 x4
      refine hK.out _ _ (hfull.out _ t4) (fun hHeld => ?_)
      clear hK K
      try simp only [Act.put, List.setIfInBounds_toArray, List.set_cons_zero, List.set_cons_succ]
      refine wpAnyH_done (by kernel_rfl) ?_ _
      go_wp2_with fail
      go_meet
      case rel => exact ⟨a5, a7, pb, pl, pc, rfl, rfl, rfl, t1, t2, hb5, hb7, hne57, t3, hPn, t4⟩
    refine AllReadyH.cons (o := { dst := some 8, op := Op.alloc 30, type := 0, pos := "ref.go:56", after := #[], guard := none }) rfl (fun K hK => ?_) AllReadyH.nil
    go_simp
    obtain ⟨Wx, hV⟩ : ∃ Wx, Wx = W.alloc (.cells #[.int .i64 0, .int .i64 0] 30) := ⟨_, rfl⟩
    obtain ⟨a7, ha7⟩ : ∃ a7, a7 = W.heap.size := ⟨_, rfl⟩
    have h7 : Wx.heap[a7]? = some (.cells #[.int .i64 0, .int .i64 0] 30 (0, 0)) := by rw [hV, ha7]; exact heap_alloc_new _ _
    have hIWx : Ix w Wx g R1 := by rw [hV]; exact hIW.alloc _
    have hO : ∀ k, k < W.heap.size → Wx.heap[k]? = W.heap[k]? := fun k hk => by rw [hV]; exact heap_alloc_old _ _ hk
    have hb7 : w.heap.size + 2 ≤ a7 := by rw [ha7]; exact hIW.two
    rw [← hV, ← ha7]
    clear hV ha7
    refine hK.out _ _ (hfull.out _ hIWx) (fun hHeld => ?_)
    clear hK K hO hIW
    try simp only [Act.put, List.setIfInBounds_toArray, List.set_cons_zero, List.set_cons_succ]
    refine wpAnyH_ready (rs := [8, 13]) (by kernel_rfl) (by simp) ?_
    refine AllReadyH.cons (o := { dst := some 80, op := Op.call { callee := Callee.value (Operand.func 34), args := #[Operand.tmp 75, Operand.tmp 79], argTypes := #[9, 2] }, type := 78, pos := "ref.go:56", after := #[{ on := 3, ground := Ground.data }, { on := 7, ground := Ground.data }], guard := none }) rfl (fun K hK => ?_) ?_
    · go_simp
      refine (hread.out _ hIWx).mono ?_
      rintro e' Wxx ⟨pb, pl, pc, rfl, hP, hPn, hO, hIWxx⟩
      go_wp2_with fail
      refine hK.out _ _ (hfull.out _ hIWxx) (fun hHeld => ?_)
      replace h7 := (hO _ (Array.getElem?_eq_some_iff.1 h7).1).trans h7
      clear hK K hO hIWx
      try simp only [Act.put, List.setIfInBounds_toArray, List.set_cons_zero, List.set_cons_succ]
      refine wpAnyH_take (i := 9) (oi := { dst := some 71, op := Op.move (Operand.tmp 80), type := 78, pos := "ref.go:56", after := #[{ on := 8, ground := Ground.data }], guard := none }) (v := ?vv25) rfl (by kernel_rfl) (by kernel_rfl) (by kernel_rfl) (fun _ _ _ h => h) (Or.inl ⟨by rfl, ?hy25⟩) (by assumption) ?_
      case hy25 => (intro w hSw; (try dsimp only at hSw); go_simp; all_goals with_reducible rfl)
      try simp only [Act.put, List.setIfInBounds_toArray, List.set_cons_zero, List.set_cons_succ]
      refine wpAnyH_take (i := 10) (oi := { dst := some 81, op := Op.extract (Operand.tmp 71) 0, type := 28, pos := "ref.go:56", after := #[{ on := 9, ground := Ground.data }], guard := none }) (v := ?vv26) rfl (by kernel_rfl) (by kernel_rfl) (by kernel_rfl) (fun _ _ _ h => h) (Or.inl ⟨by rfl, ?hy26⟩) (by assumption) ?_
      case hy26 => (intro w hSw; (try dsimp only at hSw); go_simp; all_goals with_reducible rfl)
      try simp only [Act.put, List.setIfInBounds_toArray, List.set_cons_zero, List.set_cons_succ]
      refine wpAnyH_take (i := 11) (oi := { dst := some 82, op := Op.extract (Operand.tmp 71) 1, type := 3, pos := "ref.go:56", after := #[{ on := 9, ground := Ground.data }, { on := 15, ground := Ground.gcOnly Departure.lateStores }], guard := none }) (v := ?vv27) rfl (by kernel_rfl) (by kernel_rfl) (by kernel_rfl) (fun _ _ _ h => h) (Or.inl ⟨by rfl, ?hy27⟩) (by assumption) ?_
      case hy27 => (intro w hSw; (try dsimp only at hSw); go_simp; all_goals with_reducible rfl)
      try simp only [Act.put, List.setIfInBounds_toArray, List.set_cons_zero, List.set_cons_succ]
      refine wpAnyH_take (i := 12) (oi := { dst := some 83, op := Op.extract (Operand.tmp 71) 2, type := 30, pos := "ref.go:56", after := #[{ on := 9, ground := Ground.data }, { on := 16, ground := Ground.gcOnly Departure.lateStores }], guard := none }) (v := ?vv28) rfl (by kernel_rfl) (by kernel_rfl) (by kernel_rfl) (fun _ _ _ h => h) (Or.inl ⟨by rfl, ?hy28⟩) (by assumption) ?_
      case hy28 => (intro w hSw; (try dsimp only at hSw); go_simp; all_goals with_reducible rfl)
      try simp only [Act.put, List.setIfInBounds_toArray, List.set_cons_zero, List.set_cons_succ]
      refine wpAnyH_ready (rs := [13]) (by kernel_rfl) (by simp) ?_
      refine AllReadyH.cons (o := { dst := some 6, op := Op.alloc 28, type := 0, pos := "ref.go:56", after := #[], guard := none }) rfl (fun K hK => ?_) AllReadyH.nil
      go_simp
      obtain ⟨Wxxx, hV⟩ : ∃ Wxxx, Wxxx = Wxx.alloc (.cells #[.int .i64 0, .int .i64 0, .int .i64 0, .string ⟨#[]⟩, .int .i64 0, .int .i64 0, .bool false, .int .i64 0, .int .i64 0, .int .i64 0, .slice none 0 0] 28) := ⟨_, rfl⟩
      obtain ⟨a5, ha5⟩ : ∃ a5, a5 = Wxx.heap.size := ⟨_, rfl⟩
      have h5 : Wxxx.heap[a5]? = some (.cells #[.int .i64 0, .int .i64 0, .int .i64 0, .string ⟨#[]⟩, .int .i64 0, .int .i64 0, .bool false, .int .i64 0, .int .i64 0, .int .i64 0, .slice none 0 0] 28 (0, 0)) := by rw [hV, ha5]; exact heap_alloc_new _ _
      have hIWxxx : Ix w Wxxx g R1 := by rw [hV]; exact hIWxx.alloc _
      have hO : ∀ k, k < Wxx.heap.size → Wxxx.heap[k]? = Wxx.heap[k]? := fun k hk => by rw [hV]; exact heap_alloc_old _ _ hk
      have hb5 : w.heap.size + 2 ≤ a5 := by rw [ha5]; exact hIWxx.two
      rw [← hV, ← ha5]
      clear hV ha5
      refine hK.out _ _ (hfull.out _ hIWxxx) (fun hHeld => ?_)
      replace h7 := (hO _ (Array.getElem?_eq_some_iff.1 h7).1).trans h7
      replace hP := hP.below fun k _ hlt => hO k hlt
      clear hK K hO hIWxx
      try simp only [Act.put, List.setIfInBounds_toArray, List.set_cons_zero, List.set_cons_succ]
      obtain ⟨z0, z1, z2, z3, z4, z5, z6, z7, z8, z9, z10⟩ := FB.cells (f := Fr.zero) (p := .slice none 0 0) h5
      obtain ⟨y0, y1, y2, y3, y4, y5, y6, y7, y8, y9, y10⟩ := FB.frozens (f := Fr.zero) (p := .slice none 0 0) h5
      simp only [Fr.zero] at z0 z1 z2 z3 z4 z5 z6 z7 z8 z9 z10
      refine wpAnyH_ready (rs := [15]) (by kernel_rfl) (by simp) ?_
      refine AllReadyH.cons (o := { dst := none, op := Op.store 28 (Operand.tmp 6) (Operand.tmp 81), type := 0, pos := "ref.go:56", after := #[{ on := 13, ground := Ground.data }, { on := 10, ground := Ground.data }, { on := 8, ground := Ground.chain }, { on := 0, ground := Ground.phase }, { on := 1, ground := Ground.phase }, { on := 2, ground := Ground.phase }, { on := 3, ground := Ground.phase }, { on := 4, ground := Ground.phase }, { on := 5, ground := Ground.phase }, { on := 6, ground := Ground.phase }, { on := 7, ground := Ground.phase }, { on := 8, ground := Ground.phase }, { on := 9, ground := Ground.phase }, { on := 10, ground := Ground.phase }, { on := 11, ground := Ground.textOnly Departure.lateStores }, { on := 12, ground := Ground.textOnly Departure.lateStores }, { on := 13, ground := Ground.phase }, { on := 14, ground := Ground.phase }], guard := none }) rfl (fun K hK => ?_) AllReadyH.nil
      go_simp
      change K _ (sets Wxxx a5 (fsets f (.slice pb pl pc)))
      have hne57 : a7 ≠ a5 := fun e => by rw [e, h5] at h7; simp at h7
      obtain ⟨x1, x2, x3, x4⟩ := hst5.out Wxxx a5 a7 pb pl pc h5 h7 hb5 hne57 hP hIWxxx
      refine hK.out _ _ (hfull.out _ x4) (fun hHeld => ?_)
      clear z0 z1 z2 z3 z4 z5 z6 z7 z8 z9 z10 y0 y1 y2 y3 y4 y5 y6 y7 y8 y9 y10 hK K
      generalize hWn : sets Wxxx a5 (fsets f (.slice pb pl pc)) = Wn at x1 x2 x3 x4 hHeld ⊢
      clear hWn
      try simp only [Act.put, List.setIfInBounds_toArray, List.set_cons_zero, List.set_cons_succ]
      refine wpAnyH_take (i := 16) (oi := { dst := some 7, op := Op.assign (Operand.tmp 82), type := 3, pos := "ref.go:56", after := #[{ on := 11, ground := Ground.data }, { on := 15, ground := Ground.chain }, { on := 0, ground := Ground.phase }, { on := 1, ground := Ground.phase }, { on := 2, ground := Ground.phase }, { on := 3, ground := Ground.phase }, { on := 4, ground := Ground.phase }, { on := 5, ground := Ground.phase }, { on := 6, ground := Ground.phase }, { on := 7, ground := Ground.phase }, { on := 8, ground := Ground.phase }, { on := 9, ground := Ground.phase }, { on := 10, ground := Ground.phase }, { on := 11, ground := Ground.phase }, { on := 12, ground := Ground.textOnly Departure.lateStores }, { on := 13, ground := Ground.phase }, { on := 14, ground := Ground.phase }, { on := 15, ground := Ground.phase }], guard := none }) (v := ?vv29) rfl (by kernel_rfl) (by kernel_rfl) (by kernel_rfl) (fun _ _ _ h => h) (Or.inl ⟨by rfl, ?hy29⟩) (by assumption) ?_
      case hy29 => (intro w hSw; (try dsimp only at hSw); go_simp; all_goals with_reducible rfl)
      try simp only [Act.put, List.setIfInBounds_toArray, List.set_cons_zero, List.set_cons_succ]
      have q0 := cell_of_row _ _ 0 _ _ _ x2
      have q1 := cell_of_row _ _ 1 _ _ _ x2
      have q2 : Wn.frozen? ⟨a7, 0, none⟩ = false := frozen_row x2 0
      have q3 : Wn.frozen? ⟨a7, 1, none⟩ = false := frozen_row x2 1
      simp only [List.getElem?_toArray, List.getElem?_cons_succ, List.getElem?_cons_zero] at q0 q1
      refine wpAnyH_ready (rs := [17]) (by kernel_rfl) (by simp) ?_
      refine AllReadyH.cons (o := { dst := none, op := Op.store 30 (Operand.tmp 8) (Operand.tmp 83), type := 0, pos := "ref.go:56", after := #[{ on := 14, ground := Ground.data }, { on := 12, ground := Ground.data }, { on := 16, ground := Ground.chain }, { on := 0, ground := Ground.phase }, { on := 1, ground := Ground.phase }, { on := 2, ground := Ground.phase }, { on := 3, ground := Ground.phase }, { on := 4, ground := Ground.phase }, { on := 5, ground := Ground.phase }, { on := 6, ground := Ground.phase }, { on := 7, ground := Ground.phase }, { on := 8, ground := Ground.phase }, { on := 9, ground := Ground.phase }, { on := 10, ground := Ground.phase }, { on := 11, ground := Ground.phase }, { on := 12, ground := Ground.phase }, { on := 13, ground := Ground.phase }, { on := 14, ground := Ground.phase }, { on := 15, ground := Ground.phase }, { on := 16, ground := Ground.phase }], guard := none }) rfl (fun K hK => ?_) AllReadyH.nil
      go_simp
      change K _ (sets Wn a7 [(0, .int .i64 c), (1, .int .i64 x)])
      obtain ⟨t1, t2, t3, t4⟩ := hst7.out Wn a5 a7 pb pl pc x1 x2 hb7 hne57 x3 x4
      refine hK.out _ _ (hfull.out _ t4) (fun hHeld => ?_)
      clear hK K
      try simp only [Act.put, List.setIfInBounds_toArray, List.set_cons_zero, List.set_cons_succ]
      refine wpAnyH_done (by kernel_rfl) ?_ _
      go_wp2_with fail
      go_meet
      case rel => exact ⟨a5, a7, pb, pl, pc, rfl, rfl, rfl, t1, t2, hb5, hb7, hne57, t3, hPn, t4⟩
    refine AllReadyH.cons (o := { dst := some 6, op := Op.alloc 28, type := 0, pos := "ref.go:56", after := #[], guard := none }) rfl (fun K hK => ?_) AllReadyH.nil
    go_simp
    obtain ⟨Wxx, hV⟩ : ∃ Wxx, Wxx = Wx.alloc (.cells #[.int .i64 0, .int .i64 0, .int .i64 0, .string ⟨#[]⟩, .int .i64 0, .int .i64 0, .bool false, .int .i64 0, .int .i64 0, .int .i64 0, .slice none 0 0] 28) := ⟨_, rfl⟩
    obtain ⟨a5, ha5⟩ : ∃ a5, a5 = Wx.heap.size := ⟨_, rfl⟩
    have h5 : Wxx.heap[a5]? = some (.cells #[.int .i64 0, .int .i64 0, .int .i64 0, .string ⟨#[]⟩, .int .i64 0, .int .i64 0, .bool false, .int .i64 0, .int .i64 0, .int .i64 0, .slice none 0 0] 28 (0, 0)) := by rw [hV, ha5]; exact heap_alloc_new _ _
    have hIWxx : Ix w Wxx g R1 := by rw [hV]; exact hIWx.alloc _
    have hO : ∀ k, k < Wx.heap.size → Wxx.heap[k]? = Wx.heap[k]? := fun k hk => by rw [hV]; exact heap_alloc_old _ _ hk
    have hb5 : w.heap.size + 2 ≤ a5 := by rw [ha5]; exact hIWx.two
    rw [← hV, ← ha5]
    clear hV ha5
    refine hK.out _ _ (hfull.out _ hIWxx) (fun hHeld => ?_)
    replace h7 := (hO _ (Array.getElem?_eq_some_iff.1 h7).1).trans h7
    clear hK K hO hIWx
    try simp only [Act.put, List.setIfInBounds_toArray, List.set_cons_zero, List.set_cons_succ]
    refine wpAnyH_ready (rs := [8]) (by kernel_rfl) (by simp) ?_
    refine AllReadyH.cons (o := { dst := some 80, op := Op.call { callee := Callee.value (Operand.func 34), args := #[Operand.tmp 75, Operand.tmp 79], argTypes := #[9, 2] }, type := 78, pos := "ref.go:56", after := #[{ on := 3, ground := Ground.data }, { on := 7, ground := Ground.data }], guard := none }) rfl (fun K hK => ?_) AllReadyH.nil
    go_simp
    refine (hread.out _ hIWxx).mono ?_
    rintro e' Wxxx ⟨pb, pl, pc, rfl, hP, hPn, hO, hIWxxx⟩
    go_wp2_with fail
    refine hK.out _ _ (hfull.out _ hIWxxx) (fun hHeld => ?_)
    replace h5 := (hO _ (Array.getElem?_eq_some_iff.1 h5).1).trans h5
    replace h7 := (hO _ (Array.getElem?_eq_some_iff.1 h7).1).trans h7
    clear hK K hO hIWxx
    try simp only [Act.put, List.setIfInBounds_toArray, List.set_cons_zero, List.set_cons_succ]
    refine wpAnyH_take (i := 9) (oi := { dst := some 71, op := Op.move (Operand.tmp 80), type := 78, pos := "ref.go:56", after := #[{ on := 8, ground := Ground.data }], guard := none }) (v := ?vv30) rfl (by kernel_rfl) (by kernel_rfl) (by kernel_rfl) (fun _ _ _ h => h) (Or.inl ⟨by rfl, ?hy30⟩) (by assumption) ?_
    case hy30 => (intro w hSw; (try dsimp only at hSw); go_simp; all_goals with_reducible rfl)
    try simp only [Act.put, List.setIfInBounds_toArray, List.set_cons_zero, List.set_cons_succ]
    refine wpAnyH_take (i := 10) (oi := { dst := some 81, op := Op.extract (Operand.tmp 71) 0, type := 28, pos := "ref.go:56", after := #[{ on := 9, ground := Ground.data }], guard := none }) (v := ?vv31) rfl (by kernel_rfl) (by kernel_rfl) (by kernel_rfl) (fun _ _ _ h => h) (Or.inl ⟨by rfl, ?hy31⟩) (by assumption) ?_
    case hy31 => (intro w hSw; (try dsimp only at hSw); go_simp; all_goals with_reducible rfl)
    try simp only [Act.put, List.setIfInBounds_toArray, List.set_cons_zero, List.set_cons_succ]
    refine wpAnyH_take (i := 11) (oi := { dst := some 82, op := Op.extract (Operand.tmp 71) 1, type := 3, pos := "ref.go:56", after := #[{ on := 9, ground := Ground.data }, { on := 15, ground := Ground.gcOnly Departure.lateStores }], guard := none }) (v := ?vv32) rfl (by kernel_rfl) (by kernel_rfl) (by kernel_rfl) (fun _ _ _ h => h) (Or.inl ⟨by rfl, ?hy32⟩) (by assumption) ?_
    case hy32 => (intro w hSw; (try dsimp only at hSw); go_simp; all_goals with_reducible rfl)
    try simp only [Act.put, List.setIfInBounds_toArray, List.set_cons_zero, List.set_cons_succ]
    refine wpAnyH_take (i := 12) (oi := { dst := some 83, op := Op.extract (Operand.tmp 71) 2, type := 30, pos := "ref.go:56", after := #[{ on := 9, ground := Ground.data }, { on := 16, ground := Ground.gcOnly Departure.lateStores }], guard := none }) (v := ?vv33) rfl (by kernel_rfl) (by kernel_rfl) (by kernel_rfl) (fun _ _ _ h => h) (Or.inl ⟨by rfl, ?hy33⟩) (by assumption) ?_
    case hy33 => (intro w hSw; (try dsimp only at hSw); go_simp; all_goals with_reducible rfl)
    try simp only [Act.put, List.setIfInBounds_toArray, List.set_cons_zero, List.set_cons_succ]
    obtain ⟨z0, z1, z2, z3, z4, z5, z6, z7, z8, z9, z10⟩ := FB.cells (f := Fr.zero) (p := .slice none 0 0) h5
    obtain ⟨y0, y1, y2, y3, y4, y5, y6, y7, y8, y9, y10⟩ := FB.frozens (f := Fr.zero) (p := .slice none 0 0) h5
    simp only [Fr.zero] at z0 z1 z2 z3 z4 z5 z6 z7 z8 z9 z10
    refine wpAnyH_ready (rs := [15]) (by kernel_rfl) (by simp) ?_
    refine AllReadyH.cons (o := { dst := none, op := Op.store 28 (Operand.tmp 6) (Operand.tmp 81), type := 0, pos := "ref.go:56", after := #[{ on := 13, ground := Ground.data }, { on := 10, ground := Ground.data }, { on := 8, ground := Ground.chain }, { on := 0, ground := Ground.phase }, { on := 1, ground := Ground.phase }, { on := 2, ground := Ground.phase }, { on := 3, ground := Ground.phase }, { on := 4, ground := Ground.phase }, { on := 5, ground := Ground.phase }, { on := 6, ground := Ground.phase }, { on := 7, ground := Ground.phase }, { on := 8, ground := Ground.phase }, { on := 9, ground := Ground.phase }, { on := 10, ground := Ground.phase }, { on := 11, ground := Ground.textOnly Departure.lateStores }, { on := 12, ground := Ground.textOnly Departure.lateStores }, { on := 13, ground := Ground.phase }, { on := 14, ground := Ground.phase }], guard := none }) rfl (fun K hK => ?_) AllReadyH.nil
    go_simp
    change K _ (sets Wxxx a5 (fsets f (.slice pb pl pc)))
    have hne57 : a7 ≠ a5 := fun e => by rw [e, h5] at h7; simp at h7
    obtain ⟨x1, x2, x3, x4⟩ := hst5.out Wxxx a5 a7 pb pl pc h5 h7 hb5 hne57 hP hIWxxx
    refine hK.out _ _ (hfull.out _ x4) (fun hHeld => ?_)
    clear z0 z1 z2 z3 z4 z5 z6 z7 z8 z9 z10 y0 y1 y2 y3 y4 y5 y6 y7 y8 y9 y10 hK K
    generalize hWn : sets Wxxx a5 (fsets f (.slice pb pl pc)) = Wn at x1 x2 x3 x4 hHeld ⊢
    clear hWn
    try simp only [Act.put, List.setIfInBounds_toArray, List.set_cons_zero, List.set_cons_succ]
    refine wpAnyH_take (i := 16) (oi := { dst := some 7, op := Op.assign (Operand.tmp 82), type := 3, pos := "ref.go:56", after := #[{ on := 11, ground := Ground.data }, { on := 15, ground := Ground.chain }, { on := 0, ground := Ground.phase }, { on := 1, ground := Ground.phase }, { on := 2, ground := Ground.phase }, { on := 3, ground := Ground.phase }, { on := 4, ground := Ground.phase }, { on := 5, ground := Ground.phase }, { on := 6, ground := Ground.phase }, { on := 7, ground := Ground.phase }, { on := 8, ground := Ground.phase }, { on := 9, ground := Ground.phase }, { on := 10, ground := Ground.phase }, { on := 11, ground := Ground.phase }, { on := 12, ground := Ground.textOnly Departure.lateStores }, { on := 13, ground := Ground.phase }, { on := 14, ground := Ground.phase }, { on := 15, ground := Ground.phase }], guard := none }) (v := ?vv34) rfl (by kernel_rfl) (by kernel_rfl) (by kernel_rfl) (fun _ _ _ h => h) (Or.inl ⟨by rfl, ?hy34⟩) (by assumption) ?_
    case hy34 => (intro w hSw; (try dsimp only at hSw); go_simp; all_goals with_reducible rfl)
    try simp only [Act.put, List.setIfInBounds_toArray, List.set_cons_zero, List.set_cons_succ]
    have q0 := cell_of_row _ _ 0 _ _ _ x2
    have q1 := cell_of_row _ _ 1 _ _ _ x2
    have q2 : Wn.frozen? ⟨a7, 0, none⟩ = false := frozen_row x2 0
    have q3 : Wn.frozen? ⟨a7, 1, none⟩ = false := frozen_row x2 1
    simp only [List.getElem?_toArray, List.getElem?_cons_succ, List.getElem?_cons_zero] at q0 q1
    refine wpAnyH_ready (rs := [17]) (by kernel_rfl) (by simp) ?_
    refine AllReadyH.cons (o := { dst := none, op := Op.store 30 (Operand.tmp 8) (Operand.tmp 83), type := 0, pos := "ref.go:56", after := #[{ on := 14, ground := Ground.data }, { on := 12, ground := Ground.data }, { on := 16, ground := Ground.chain }, { on := 0, ground := Ground.phase }, { on := 1, ground := Ground.phase }, { on := 2, ground := Ground.phase }, { on := 3, ground := Ground.phase }, { on := 4, ground := Ground.phase }, { on := 5, ground := Ground.phase }, { on := 6, ground := Ground.phase }, { on := 7, ground := Ground.phase }, { on := 8, ground := Ground.phase }, { on := 9, ground := Ground.phase }, { on := 10, ground := Ground.phase }, { on := 11, ground := Ground.phase }, { on := 12, ground := Ground.phase }, { on := 13, ground := Ground.phase }, { on := 14, ground := Ground.phase }, { on := 15, ground := Ground.phase }, { on := 16, ground := Ground.phase }], guard := none }) rfl (fun K hK => ?_) AllReadyH.nil
    go_simp
    change K _ (sets Wn a7 [(0, .int .i64 c), (1, .int .i64 x)])
    obtain ⟨t1, t2, t3, t4⟩ := hst7.out Wn a5 a7 pb pl pc x1 x2 hb7 hne57 x3 x4
    refine hK.out _ _ (hfull.out _ t4) (fun hHeld => ?_)
    clear hK K
    try simp only [Act.put, List.setIfInBounds_toArray, List.set_cons_zero, List.set_cons_succ]
    refine wpAnyH_done (by kernel_rfl) ?_ _
    go_wp2_with fail
    go_meet
    case rel => exact ⟨a5, a7, pb, pl, pc, rfl, rfl, rfl, t1, t2, hb5, hb7, hne57, t3, hPn, t4⟩
  case rest =>
    obtain ⟨a5, a7, pb, pl, pc, rfl, rfl, rfl, hF5, h7, hb5, hb7, hne57, hP, hPn, hI⟩ := hcut
    have hgB := hI.lt
    have n1 : ¬ g = w.heap.size := by omega
    have n2 : ¬ g = w.heap.size + 1 := by omega
    have n3 : ¬ g = a5 := by omega
    have n4 : ¬ g = a7 := by omega
    have n5 : ¬ a5 = w.heap.size := by omega
    have n6 : ¬ a5 = w.heap.size + 1 := by omega
    have n7 : ¬ a7 = w.heap.size := by omega
    have n8 : ¬ a7 = w.heap.size + 1 := by omega
    obtain ⟨c0, c1, c2, c3, c4⟩ := hI.rf.cells
    have f2 := hI.rf.frozen 2
    obtain ⟨d0, d1, d2, d3, d4, d5, d6, d7, d8, d9, d10⟩ := hF5.cells
    obtain ⟨e0, e1, -, -⟩ := box_cells h7
    have hz4' : FB wc w.heap.size Fr.zero (.slice none 0 0) := hI.z0
    obtain ⟨z0, z1, z2, z3, z4, z5, z6, z7, z8, z9, z10⟩ := hz4'.cells
    obtain ⟨y0, y1, y2, y3, y4, y5, y6, y7, y8, y9, y10⟩ := hz4'.frozens
    obtain ⟨q0, q1, q2, q3⟩ := box_cells hI.z1
    simp only [Fr.zero] at z0 z1 z2 z3 z4 z5 z6 z7 z8 z9 z10
    clear hz4' hread hfull hst5 hst7 hIx
    rcases HR.out with ⟨h1, _⟩ | ⟨c', hc', _, h1⟩ | ⟨c', x', hc', hx', _, h1⟩ | ⟨f', ps', hl', h1⟩
    · obtain ⟨⟨e1', e2'⟩, e3', e4', e5'⟩ : (f = Fr.zero ∧ ps = []) ∧ (M : Int) = 0 ∧ c = 0 ∧ x = 0 := by simpa only [Prod.mk.injEq] using h1
      subst e4' e5'
      have hM0 : M = 0 := by omega
      have HTT : Hid (T = ⟨(Fr.zero, []), false, 0, 0, R1⟩) := by
        show T = _
        rw [HT.out]
        simp [hM0]
      have hMb : ((M : Int) == 0) = true := by simpa using e3'
      have hfin0 := rfin w wc g w.heap.size R1 R1 [] Fr.zero none 0 0 [] 0 0 hI.lt (Nat.le_refl _) hI.kp hI.rf rfl hI.z0 hI.z1 (PRow.nil _)
      simp only [sets, fsets, Fr.zero, List.foldl_cons, List.foldl_nil] at hfin0
      have hfin : Hid _ := hfin0
      clear hfin0
      clear HR HT h1 hF5 h7 hI hP hPn
      go_wp2_with fail
      obtain ⟨t1, t2, t3, t4, t5⟩ := hfin.out _ rfl rfl rfl rfl
      exact bodyPost_ret (results_three (p := 2) (ty := 28) (r := 3) (q := 4) (tz := 30) rfl _ _ w.heap.size (w.heap.size + 1) 28 30 _ _ (0, 0) (0, 0) _ _ rfl t1 Tryd.underlying28 rfl (by kernel_rfl) rfl t2 Tryd.underlying30 rfl (by kernel_rfl)) rfl (by rw [HTT.out]; exact ⟨none, 0, 0, rfl, t3, (fun k hk => by simp [Value.ownBlock] at hk), t4, t5⟩)
    · obtain ⟨⟨e1', e2'⟩, e3', e4', e5'⟩ : (f = Fr.zero ∧ ps = []) ∧ (M : Int) = 0 ∧ c = c' ∧ x = 0 := by simpa only [Prod.mk.injEq] using h1
      subst e4' e5'
      have HTT : Hid (T = ⟨(Fr.zero, []), false, c, 0, rdead R1 c⟩) := by
        show T = _
        rw [HT.out]
        simp [hc']
      have hcb : (c == 0) = false := by simpa using hc'
      have hbr : Hid (∀ W, Ix w W g R1 → Calls Tryd.prog 33 #[.pointer (some ⟨g, 0, none⟩), .agg #[.int .i64 c, .int .i64 0]] W fun e w' => e = .returned (.tuple #[.agg #[.int .i64 0, .int .i64 0, .int .i64 0, .string ⟨#[]⟩, .int .i64 0, .int .i64 0, .bool false, .int .i64 0, .int .i64 0, .int .i64 0, .slice none 0 0], .bool false, .agg #[.int .i64 c, .int .i64 0]]) ∧ Ix w w' g (rdead R1 c)) := fun W hJ => by
        refine (breaks_any W g R1 hJ.rf c).mono ?_
        rintro e w' ⟨rfl, hR, hk⟩
        have hlt' := hJ.lt
        have htw := hJ.two
        exact ⟨rfl, hJ.kp.trans hk, Nat.le_trans hJ.two hk.size, (hk.block _ (by omega) (by omega)).trans hJ.z0, (hk.block _ (by omega) (by omega)).trans hJ.z1, hR, hJ.lt⟩
      have hI' : Hid _ := hI
      clear HR HT h1 hF5 h7 hI hP hPn e1' e2' e3'
      go_wp2_with fail
      refine (hbr.out _ hI'.out).mono ?_
      rintro e wd ⟨rfl, hJ⟩
      have hz5 : FB wd w.heap.size Fr.zero (.slice none 0 0) := hJ.z0
      obtain ⟨u0, u1, u2, u3, u4, u5, u6, u7, u8', u9', u10'⟩ := hz5.cells
      obtain ⟨o0, o1, o2, o3, o4, o5, o6, o7, o8, o9, o10⟩ := hz5.frozens
      obtain ⟨r0, r1, r2, r3⟩ := box_cells hJ.z1
      simp only [Fr.zero] at u0 u1 u2 u3 u4 u5 u6 u7 u8' u9' u10'
      have hfin0 := rfin w wd g w.heap.size (rdead R1 c) (rdead R1 c) [] Fr.zero none 0 0 [] c 0 hJ.lt (Nat.le_refl _) hJ.kp hJ.rf rfl hJ.z0 hJ.z1 (PRow.nil _)
      simp only [sets, fsets, Fr.zero, List.foldl_cons, List.foldl_nil] at hfin0
      have hfin : Hid _ := hfin0
      clear hfin0
      clear hz5 hJ hI' hbr
      go_wp2_with fail
      obtain ⟨t1, t2, t3, t4, t5⟩ := hfin.out _ rfl rfl rfl rfl
      exact bodyPost_ret (results_three (p := 2) (ty := 28) (r := 3) (q := 4) (tz := 30) rfl _ _ w.heap.size (w.heap.size + 1) 28 30 _ _ (0, 0) (0, 0) _ _ rfl t1 Tryd.underlying28 rfl (by kernel_rfl) rfl t2 Tryd.underlying30 rfl (by kernel_rfl)) rfl (by rw [HTT.out]; exact ⟨none, 0, 0, rfl, t3, (fun k hk => by simp [Value.ownBlock] at hk), t4, t5⟩)
    · obtain ⟨⟨e1', e2'⟩, e3', e4', e5'⟩ : (f = Fr.zero ∧ ps = []) ∧ (M : Int) = ((9 + YtmhbaaemihljjaaDoor.n3 R1.b.data.toList : Nat) : Int) ∧ c = c' ∧ x = x' := by simpa only [Prod.mk.injEq] using h1
      subst e4' e5'
      have HTT : Hid (T = ⟨(Fr.zero, []), false, c, x, { R1 with b := R1.b.extract M R1.b.size }⟩) := by
        show T = _
        rw [HT.out]
        simp [hc', hx']
      have hcb : (c == 0) = false := by simpa using hc'
      have hxb : (x == 0) = false := by simpa using hx'
      have hMs : (M : Int) ≤ (R1.b.size : Int) := by omega
      have hfin0 := rfin w wc g w.heap.size R1 { R1 with b := R1.b.extract M R1.b.size } [(2, .string (R1.b.extract M R1.b.size))] Fr.zero none 0 0 [] c x hI.lt (Nat.le_refl _) hI.kp hI.rf rfl hI.z0 hI.z1 (PRow.nil _)
      simp only [sets, fsets, Fr.zero, List.foldl_cons, List.foldl_nil] at hfin0
      have hfin : Hid _ := hfin0
      clear hfin0
      clear HR HT h1 hF5 h7 hI hP hPn e1' e2' e3'
      go_wp2_with fail
      go_region
      all_goals
        go_wp2_with fail
        generalize hW2 : World.drew _ = w2
        obtain ⟨t1, t2, t3, t4, t5⟩ := hfin.out w2 (by rw [← hW2]; exact drew_heap _) (by rw [← hW2]; exact drew_os _) (by rw [← hW2]; exact drew_tape _) (by rw [← hW2]; exact drew_output _)
        clear hW2
        exact bodyPost_ret (results_three (p := 2) (ty := 28) (r := 3) (q := 4) (tz := 30) rfl _ _ w.heap.size (w.heap.size + 1) 28 30 _ _ (0, 0) (0, 0) _ _ rfl t1 Tryd.underlying28 rfl (by kernel_rfl) rfl t2 Tryd.underlying30 rfl (by kernel_rfl)) rfl (by rw [HTT.out]; exact ⟨none, 0, 0, rfl, t3, (fun k hk => by simp [Value.ownBlock] at hk), t4, t5⟩)
    · obtain ⟨⟨e1', e2'⟩, e3', e4', e5'⟩ : (f = f' ∧ ps = ps') ∧ (M : Int) = ((9 + YtmhbaaemihljjaaDoor.n3 R1.b.data.toList : Nat) : Int) ∧ c = 0 ∧ x = 0 := by simpa only [Prod.mk.injEq] using h1
      subst e4' e5'
      have hM0 : ¬ (M : Int) = 0 := by omega
      have HTT : Hid (T = ⟨(f, ps), true, 0, 0, { R1 with b := R1.b.extract M R1.b.size }⟩) := by
        show T = _
        rw [HT.out]
        simp [hM0]
        omega
      have hMb : ((M : Int) == 0) = false := by simpa using hM0
      have hMs : (M : Int) ≤ (R1.b.size : Int) := by omega
      have hPn' : Hid _ := hPn
      have hfin0 := rfin w wc g w.heap.size R1 { R1 with b := R1.b.extract M R1.b.size } [(2, .string (R1.b.extract M R1.b.size))] f pb pl pc ps 0 0 hI.lt (Nat.le_refl _) hI.kp hI.rf rfl hI.z0 hI.z1 hP
      simp only [sets, fsets, Fr.zero, List.foldl_cons, List.foldl_nil] at hfin0
      have hfin : Hid _ := hfin0
      clear hfin0
      clear HR HT h1 hF5 h7 hI hP hPn e1' e2' e3'
      go_wp2_with fail
      obtain ⟨t1, t2, t3, t4, t5⟩ := hfin.out _ rfl rfl rfl rfl
      exact bodyPost_ret (results_three (p := 2) (ty := 28) (r := 3) (q := 4) (tz := 30) rfl _ _ w.heap.size (w.heap.size + 1) 28 30 _ _ (0, 0) (0, 0) _ _ rfl t1 Tryd.underlying28 rfl (by kernel_rfl) rfl t2 Tryd.underlying30 rfl (by kernel_rfl)) rfl (by rw [HTT.out]; exact ⟨pb, pl, pc, rfl, t3, hPn'.out, t4, t5⟩)
end Go.Proofs.YtmhbaaemihljjaaDoor
