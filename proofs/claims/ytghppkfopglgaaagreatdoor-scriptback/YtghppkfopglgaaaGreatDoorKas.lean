/- The same pages, the same rules. The same worlds. The same moves. The reader: what is left is of what was there. -/
import Derived.Test.YtghppkfopglgaaaGreatDoorRx
import Derived.Deep.QuietTactic
import Derived.BigQuiet
import Derived.Test.YtghppkfopglgaaaGreatDoorKap
namespace Go.Proofs.YtghppkfopglgaaaGreatDoor
open Go.RowKit
set_option linter.unusedVariables false
set_option linter.unusedSimpArgs false
theorem In.at {α : Type} {E : El α} {w W : World} {b : Option Addr} {n c : Nat} {l : List α} (h : In E w (.slice b n c) l) (ok : E.Ok) (hW : Below w.heap.size w W) (k : Nat) (hk : k < l.length) : ∃ B off, b = some ⟨B, off, none⟩ ∧ B < W.heap.size ∧ ∀ i u, (E.enc l[k])[i]? = some u → W.cell? ⟨B, off + k * E.sz + i, none⟩ = some u := by
  obtain ⟨B, off, cap, e, hB, hc⟩ := h.get ok k hk
  injection e with e _ _
  refine ⟨B, off, e, Nat.lt_of_lt_of_le hB hW.size, fun i u hu => ?_⟩
  have := hc i u hu
  unfold World.cell? at this ⊢
  simp only at this ⊢
  rw [hW.block B hB]
  exact this
theorem In.len {α : Type} {E : El α} {w : World} {b : Option Addr} {n c : Nat} {l : List α} (h : In E w (.slice b n c) l) : n = l.length := by
  obtain ⟨_, _, e, _⟩ := h.slice
  exact (Value.slice.inj e).2.1
/-- two boxes, and what they were made over -/
structure Bx2 (g2 g3 : Nat) (c2 c3 : Array Value) (ty : TypeId) (w W : World) : Prop where
  bel : Below w.heap.size w W
  b2 : W.heap[g2]? = some (.cells c2 ty (0, 0))
  b3 : W.heap[g3]? = some (.cells c3 ty (0, 0))
theorem Bx2.below {g2 g3 : Nat} {c2 c3 : Array Value} {ty : TypeId} {w W W' : World} (h : Bx2 g2 g3 c2 c3 ty w W) (hb : Below W.heap.size W W') : Bx2 g2 g3 c2 c3 ty w W' :=
  ⟨h.bel.trans (hb.mono h.bel.size), (hb.block _ (heap_lt h.b2)).trans h.b2, (hb.block _ (heap_lt h.b3)).trans h.b3⟩
theorem bx2_new (w : World) (c2 c3 : Array Value) (ty : TypeId) : Bx2 w.heap.size (w.heap.size + 1) c2 c3 ty w ((w.alloc (.cells c2 ty)).alloc (.cells c3 ty)) :=
  ⟨bel2 _ _ _, by rw [heap_al, if_neg (by simp), heap_al, if_pos rfl], fresh2 _ _ _⟩
set_option maxRecDepth 100000 in
set_option maxHeartbeats 8000000 in
theorem samePage_any (p : Pg) (s1 s2 : Sl) (w : World) (h1 : In ECh w s1.v p.ch) (h2 : In ECh w s2.v p.ch) : Calls Tryz.prog 52 #[.agg (pgA p s1), .agg (pgA p s2)] w fun e w' => e = .returned (.bool true) ∧ Below w.heap.size w w' := by
  obtain ⟨b1, m, c1⟩ := s1
  obtain ⟨b2, m2, c2⟩ := s2
  have hm : m = (p.ch).length := In.len h1
  have hm2 : m = m2 := by rw [hm]; exact (In.len h2).symm
  subst hm2
  obtain ⟨l, hl⟩ : ∃ l, p.ch = l := ⟨_, rfl⟩
  have HI1 := hid h1
  have HI2 := hid h2
  rw [hl] at HI1 HI2 hm
  have HMM := hid hm
  have HM9 : Hid (m ≤ 9223372036854775807) := hid (by obtain ⟨_, _, e, h5, h6⟩ := HI1.out.slice; have := (Value.slice.inj e).2.1; omega)
  have hm9 : m ≤ 9223372036854775807 := HM9.out
  obtain ⟨g2, hg2⟩ : ∃ g2, w.heap.size = g2 := ⟨_, rfl⟩
  obtain ⟨g3, hg3⟩ : ∃ g3, g2 + 1 = g3 := ⟨_, rfl⟩
  obtain ⟨W1, hW1⟩ : ∃ V, (w.alloc (.cells (#[.string p.a, .string p.p, .int .i64 p.st, .string p.vr, .slice b1 m c1]) 34)).alloc (.cells (#[.string p.a, .string p.p, .int .i64 p.st, .string p.vr, .slice b2 m c2]) 34) = V := ⟨_, rfl⟩
  have HB1 : Hid (Bx2 g2 g3 (#[.string p.a, .string p.p, .int .i64 p.st, .string p.vr, .slice b1 m c1]) (#[.string p.a, .string p.p, .int .i64 p.st, .string p.vr, .slice b2 m c2]) 34 w W1) := hid (by rw [← hW1, ← hg3, ← hg2]; exact bx2_new w _ _ _)
  have HW1 := hid hW1
  have HG2 := hid hg2
  have HG3 := hid hg3
  have d0 : W1.cell? ⟨g2, 0, none⟩ = some (.string p.a) := by have := cell_blk HB1.out.b2 0; rw [this]; rfl
  have e0 : W1.cell? ⟨g3, 0, none⟩ = some (.string p.a) := by have := cell_blk HB1.out.b3 0; rw [this]; rfl
  have d1 : W1.cell? ⟨g2, 1, none⟩ = some (.string p.p) := by have := cell_blk HB1.out.b2 1; rw [this]; rfl
  have e1 : W1.cell? ⟨g3, 1, none⟩ = some (.string p.p) := by have := cell_blk HB1.out.b3 1; rw [this]; rfl
  have d2 : W1.cell? ⟨g2, 2, none⟩ = some (.int .i64 p.st) := by have := cell_blk HB1.out.b2 2; rw [this]; rfl
  have e2 : W1.cell? ⟨g3, 2, none⟩ = some (.int .i64 p.st) := by have := cell_blk HB1.out.b3 2; rw [this]; rfl
  have d3 : W1.cell? ⟨g2, 3, none⟩ = some (.string p.vr) := by have := cell_blk HB1.out.b2 3; rw [this]; rfl
  have e3 : W1.cell? ⟨g3, 3, none⟩ = some (.string p.vr) := by have := cell_blk HB1.out.b3 3; rw [this]; rfl
  have d4 : W1.cell? ⟨g2, 4, none⟩ = some (.slice b1 m c1) := by have := cell_blk HB1.out.b2 4; rw [this]; rfl
  have e4 : W1.cell? ⟨g3, 4, none⟩ = some (.slice b2 m c2) := by have := cell_blk HB1.out.b3 4; rw [this]; rfl
  have l2 := heap_lt HB1.out.b2
  have l3 := heap_lt HB1.out.b3
  clear h1 h2 hl hm hW1 hg2 hg3
  go_enter Tryz.func52, Tryz.ntmps52
  go_upto_region 1 with fail
  try rw [HG2.out]
  try rw [HG3.out]
  try (erw [HW1.out])
  go_wp2_with fail
  clear d0 e0 d1 e1 d2 e2 d3 e3 d4 e4 l2 l3
  go_loopw [5] (fun iv wr => ∃ k : Nat, iv = .int .i64 (k : Int) ∧ k ≤ m ∧ Hid (Bx2 g2 g3 (#[.string p.a, .string p.p, .int .i64 p.st, .string p.vr, .slice b1 m c1]) (#[.string p.a, .string p.p, .int .i64 p.st, .string p.vr, .slice b2 m c2]) 34 w wr)) (fun iv _ => m - (intOf iv).toNat)
  case atStart => exact ⟨0, rfl, Nat.zero_le _, HB1⟩
  case round =>
    obtain ⟨k, rfl, hk, HJ⟩ := hrel
    clear HB1
    have d4 : wr.cell? ⟨g2, 4, none⟩ = some (.slice b1 m c1) := by have := cell_blk HJ.out.b2 4; rw [this]; rfl
    have e4 : wr.cell? ⟨g3, 4, none⟩ = some (.slice b2 m c2) := by have := cell_blk HJ.out.b3 4; rw [this]; rfl
    by_cases hlt : k < m
    · have hltI : (k : Int) < (m : Int) := by omega
      have hkl : k < l.length := by have := HMM.out; omega
      obtain ⟨B1, o1, rfl, hB1, hc1⟩ := HI1.out.at okCh HJ.out.bel k hkl
      obtain ⟨B2, o2, rfl, hB2, hc2⟩ := HI2.out.at okCh HJ.out.bel k hkl
      obtain ⟨x, hx⟩ : ∃ x, l[k]'hkl = x := ⟨_, rfl⟩
      rw [hx] at hc1 hc2
      have u0 := hc1 0 (.string x.v) rfl
      have v0 := hc2 0 (.string x.v) rfl
      have u1 := hc1 1 (.string x.b) rfl
      have v1 := hc2 1 (.string x.b) rfl
      simp only [show ECh.sz = 2 from rfl, Nat.add_zero] at u0 v0 u1 v1
      clear hc1 hc2 hx hkl
      go_upto_region 6 with fail
      go_quiet (fail)
      go_wp2_with fail
      go_roundw
      case rel => exact ⟨k + 1, rfl, by omega, hid (HJ.out.below (below_drewN (Below.refl _ wr) _))⟩
      case measure => show m - ((k : Int) + 1).toNat < m - ((k : Nat) : Int).toNat; omega
    · have hnl : ¬ (k : Int) < (m : Int) := by omega
      go_wp2_with fail
      go_ret
      exact ⟨rfl, HJ.out.bel⟩
set_option maxRecDepth 100000 in
set_option maxHeartbeats 8000000 in
theorem sameRule_any (p : Ru) (s1 s2 : Sl) (w : World) (h1 : In ETg w s1.v p.push) (h2 : In ETg w s2.v p.push) : Calls Tryz.prog 53 #[.agg (ruA p s1), .agg (ruA p s2)] w fun e w' => e = .returned (.bool true) ∧ Below w.heap.size w w' := by
  obtain ⟨b1, m, c1⟩ := s1
  obtain ⟨b2, m2, c2⟩ := s2
  have hm : m = (p.push).length := In.len h1
  have hm2 : m = m2 := by rw [hm]; exact (In.len h2).symm
  subst hm2
  obtain ⟨l, hl⟩ : ∃ l, p.push = l := ⟨_, rfl⟩
  have HI1 := hid h1
  have HI2 := hid h2
  rw [hl] at HI1 HI2 hm
  have HMM := hid hm
  have HM9 : Hid (m ≤ 9223372036854775807) := hid (by obtain ⟨_, _, e, h5, h6⟩ := HI1.out.slice; have := (Value.slice.inj e).2.1; omega)
  have hm9 : m ≤ 9223372036854775807 := HM9.out
  obtain ⟨g2, hg2⟩ : ∃ g2, w.heap.size = g2 := ⟨_, rfl⟩
  obtain ⟨g3, hg3⟩ : ∃ g3, g2 + 1 = g3 := ⟨_, rfl⟩
  obtain ⟨W1, hW1⟩ : ∃ V, (w.alloc (.cells (#[.string p.of.a, .string p.of.p, .slice b1 m c1]) 64)).alloc (.cells (#[.string p.of.a, .string p.of.p, .slice b2 m c2]) 64) = V := ⟨_, rfl⟩
  have HB1 : Hid (Bx2 g2 g3 (#[.string p.of.a, .string p.of.p, .slice b1 m c1]) (#[.string p.of.a, .string p.of.p, .slice b2 m c2]) 64 w W1) := hid (by rw [← hW1, ← hg3, ← hg2]; exact bx2_new w _ _ _)
  have HW1 := hid hW1
  have HG2 := hid hg2
  have HG3 := hid hg3
  have d0 : W1.cell? ⟨g2, 0, none⟩ = some (.string p.of.a) := by have := cell_blk HB1.out.b2 0; rw [this]; rfl
  have e0 : W1.cell? ⟨g3, 0, none⟩ = some (.string p.of.a) := by have := cell_blk HB1.out.b3 0; rw [this]; rfl
  have d1 : W1.cell? ⟨g2, 1, none⟩ = some (.string p.of.p) := by have := cell_blk HB1.out.b2 1; rw [this]; rfl
  have e1 : W1.cell? ⟨g3, 1, none⟩ = some (.string p.of.p) := by have := cell_blk HB1.out.b3 1; rw [this]; rfl
  have d2 : W1.cell? ⟨g2, 2, none⟩ = some (.slice b1 m c1) := by have := cell_blk HB1.out.b2 2; rw [this]; rfl
  have e2 : W1.cell? ⟨g3, 2, none⟩ = some (.slice b2 m c2) := by have := cell_blk HB1.out.b3 2; rw [this]; rfl
  have l2 := heap_lt HB1.out.b2
  have l3 := heap_lt HB1.out.b3
  clear h1 h2 hl hm hW1 hg2 hg3
  go_enter Tryz.func53, Tryz.ntmps53
  go_upto_region 1 with fail
  try rw [HG2.out]
  try rw [HG3.out]
  try (erw [HW1.out])
  go_wp2_with fail
  clear d0 e0 d1 e1 d2 e2 l2 l3
  go_loopw [5] (fun iv wr => ∃ k : Nat, iv = .int .i64 (k : Int) ∧ k ≤ m ∧ Hid (Bx2 g2 g3 (#[.string p.of.a, .string p.of.p, .slice b1 m c1]) (#[.string p.of.a, .string p.of.p, .slice b2 m c2]) 64 w wr)) (fun iv _ => m - (intOf iv).toNat)
  case atStart => exact ⟨0, rfl, Nat.zero_le _, HB1⟩
  case round =>
    obtain ⟨k, rfl, hk, HJ⟩ := hrel
    clear HB1
    have d2 : wr.cell? ⟨g2, 2, none⟩ = some (.slice b1 m c1) := by have := cell_blk HJ.out.b2 2; rw [this]; rfl
    have e2 : wr.cell? ⟨g3, 2, none⟩ = some (.slice b2 m c2) := by have := cell_blk HJ.out.b3 2; rw [this]; rfl
    by_cases hlt : k < m
    · have hltI : (k : Int) < (m : Int) := by omega
      have hkl : k < l.length := by have := HMM.out; omega
      obtain ⟨B1, o1, rfl, hB1, hc1⟩ := HI1.out.at okTg HJ.out.bel k hkl
      obtain ⟨B2, o2, rfl, hB2, hc2⟩ := HI2.out.at okTg HJ.out.bel k hkl
      obtain ⟨x, hx⟩ : ∃ x, l[k]'hkl = x := ⟨_, rfl⟩
      rw [hx] at hc1 hc2
      have u0 := hc1 0 (.string x.a) rfl
      have v0 := hc2 0 (.string x.a) rfl
      have u1 := hc1 1 (.string x.p) rfl
      have v1 := hc2 1 (.string x.p) rfl
      simp only [show ETg.sz = 2 from rfl, Nat.add_zero] at u0 v0 u1 v1
      clear hc1 hc2 hx hkl
      go_upto_region 6 with fail
      go_quiet (fail)
      go_wp2_with fail
      go_roundw
      case rel => exact ⟨k + 1, rfl, by omega, hid (HJ.out.below (below_drewN (Below.refl _ wr) _))⟩
      case measure => show m - ((k : Int) + 1).toNat < m - ((k : Nat) : Int).toNat; omega
    · have hnl : ¬ (k : Int) < (m : Int) := by omega
      go_wp2_with fail
      go_ret
      exact ⟨rfl, HJ.out.bel⟩
end Go.Proofs.YtghppkfopglgaaaGreatDoor
namespace Go.Proofs.YtghppkfopglgaaaGreatDoor
open Go.RowKit
set_option linter.unusedVariables false
set_option linter.unusedSimpArgs false
/-- a world's rows, as they can be read -/
structure WoRd (W : World) (x : Wo) (sp su so : Sl) : Prop where
  pg : ∃ ps : List (Pg × Sl), ps.map (·.1) = x.pg ∧ In EPg W sp.v ps ∧ ∀ q ∈ ps, In ECh W q.2.v q.1.ch
  ru : ∃ us : List (Ru × Sl), us.map (·.1) = x.ru ∧ In ERu W su.v us ∧ ∀ q ∈ us, In ETg W q.2.v q.1.push
  og : In EOg W so.v x.og
theorem WoN.read {W : World} {B : Nat} {x : Wo} {sp su so : Sl} (h : WoN W B x sp su so) : WoRd W x sp su so := by
  obtain ⟨⟨ps, p1, p2, p3⟩, ⟨us, u1, u2, u3⟩, og, _, _, _⟩ := h
  exact ⟨⟨ps, p1, p2.isIn, fun q hq => (p3 q hq).1.isIn⟩, ⟨us, u1, u2.isIn, fun q hq => (u3 q hq).1.isIn⟩, og.isIn⟩
theorem WoRd.below {W W' : World} {x : Wo} {sp su so : Sl} (h : WoRd W x sp su so) (hb : Below W.heap.size W W') : WoRd W' x sp su so := by
  obtain ⟨⟨ps, p1, p2, p3⟩, ⟨us, u1, u2, u3⟩, og⟩ := h
  exact ⟨⟨ps, p1, p2.below hb, fun q hq => (p3 q hq).below hb⟩, ⟨us, u1, u2.below hb, fun q hq => (u3 q hq).below hb⟩, og.below hb⟩
theorem cell_below {W V : World} (hb : Below W.heap.size W V) {B o : Nat} {u : Value} (h : W.cell? ⟨B, o, none⟩ = some u) : V.cell? ⟨B, o, none⟩ = some u := by
  have hlt : B < W.heap.size := World.block_lt_of_cell? _ _ h
  unfold World.cell? at h ⊢
  simp only at h ⊢
  rw [hb.block B hlt]
  exact h
theorem fst_at {α β : Type} {l m : List (α × β)} (h : l.map (·.1) = m.map (·.1)) (k : Nat) (h1 : k < l.length) (h2 : k < m.length) : (l[k]'h1).1 = (m[k]'h2).1 := by
  have e : (l.map (·.1))[k]? = (m.map (·.1))[k]? := by rw [h]
  rw [List.getElem?_map, List.getElem?_map, List.getElem?_eq_getElem h1, List.getElem?_eq_getElem h2] at e
  exact Option.some.inj e
set_option maxRecDepth 100000 in
set_option maxHeartbeats 16000000 in
theorem sameWorld_any (x : Wo) (sp su so tp tu to' : Sl) (w : World) (h1 : WoRd w x sp su so) (h2 : WoRd w x tp tu to') : Calls Tryz.prog 36 #[.agg (woA x sp su so), .agg (woA x tp tu to')] w fun e w' => e = .returned (.bool true) ∧ Below w.heap.size w w' := by
  obtain ⟨⟨a0, a1, a2, a3, a4, a5⟩, ⟨a6, a7, a8, a9, a10, a11⟩, a12, a13, a14, a15, wp, wu, wo⟩ := x
  obtain ⟨⟨ps, p1, p2, p3⟩, ⟨us, u1, u2, u3⟩, og⟩ := h1
  obtain ⟨⟨qs, q1, q2, q3⟩, ⟨ts, t1, t2, t3⟩, pg⟩ := h2
  simp only at p1 u1 og q1 t1 pg
  obtain ⟨pb, pn, pc⟩ := sp
  obtain ⟨ub, un, uc⟩ := su
  obtain ⟨ob, n3, oc⟩ := so
  obtain ⟨qb, qn, qc⟩ := tp
  obtain ⟨tb, tn, tc⟩ := tu
  obtain ⟨rb, rn, rc⟩ := to'
  have j1 : pn = ps.length := In.len p2
  have j2 : un = us.length := In.len u2
  have j3 : n3 = wo.length := In.len og
  have j4 : pn = qn := by have : qn = qs.length := In.len q2; have := congrArg List.length (p1.trans q1.symm); simp at this; omega
  have j5 : un = tn := by have : tn = ts.length := In.len t2; have := congrArg List.length (u1.trans t1.symm); simp at this; omega
  have j6 : n3 = rn := by have : rn = wo.length := In.len pg; omega
  subst j4; subst j5; subst j6
  have HPP : Hid (∀ k (h1 : k < ps.length) (h2 : k < qs.length), (ps[k]'h1).1 = (qs[k]'h2).1) := hid (fun k h1 h2 => fst_at (p1.trans q1.symm) k h1 h2)
  have HUU : Hid (∀ k (h1 : k < us.length) (h2 : k < ts.length), (us[k]'h1).1 = (ts[k]'h2).1) := hid (fun k h1 h2 => fst_at (u1.trans t1.symm) k h1 h2)
  have HYtghppkfopglgaaaGreatDoor : Hid (pn = ps.length ∧ pn = qs.length ∧ un = us.length ∧ un = ts.length ∧ n3 = wo.length) := hid ⟨j1, In.len q2, j2, In.len t2, j3⟩
  have h63 : ∀ {α : Type} {E : El α} {b : Option Addr} {n c : Nat} {l : List α}, In E w (.slice b n c) l → n ≤ 9223372036854775807 := fun h => by
    obtain ⟨_, _, e, h5, h6⟩ := h.slice
    have := (Value.slice.inj e).2.1
    omega
  have hp9 := h63 p2
  have hu9 := h63 u2
  have ho9 := h63 og
  have HP := hid p2; have HQ := hid q2; have HU := hid u2; have HT := hid t2; have HO := hid og; have HG := hid pg
  have HPN := hid p3; have HQN := hid q3; have HUN := hid u3; have HTN := hid t3
  obtain ⟨c2, hc2⟩ : ∃ c, woA ⟨⟨a0, a1, a2, a3, a4, a5⟩, ⟨a6, a7, a8, a9, a10, a11⟩, a12, a13, a14, a15, wp, wu, wo⟩ ⟨pb, pn, pc⟩ ⟨ub, un, uc⟩ ⟨ob, n3, oc⟩ = c := ⟨_, rfl⟩
  obtain ⟨c3, hc3⟩ : ∃ c, woA ⟨⟨a0, a1, a2, a3, a4, a5⟩, ⟨a6, a7, a8, a9, a10, a11⟩, a12, a13, a14, a15, wp, wu, wo⟩ ⟨qb, pn, qc⟩ ⟨tb, un, tc⟩ ⟨rb, n3, rc⟩ = c := ⟨_, rfl⟩
  rw [hc2, hc3]
  obtain ⟨g2, hg2⟩ : ∃ g2, w.heap.size = g2 := ⟨_, rfl⟩
  obtain ⟨g3, hg3⟩ : ∃ g3, g2 + 1 = g3 := ⟨_, rfl⟩
  obtain ⟨W1, hW1⟩ : ∃ V, (w.alloc (.cells c2 45)).alloc (.cells c3 45) = V := ⟨_, rfl⟩
  have HB1 : Hid (Bx2 g2 g3 c2 c3 45 w W1) := hid (by rw [← hW1, ← hg3, ← hg2]; exact bx2_new w _ _ _)
  have HW1 := hid hW1
  have HG2 := hid hg2
  have HG3 := hid hg3
  have y0 : c2[0]? = some (.int .i64 a0) := by rw [← hc2]; rfl
  have z0 : c3[0]? = some (.int .i64 a0) := by rw [← hc3]; rfl
  have y1 : c2[1]? = some (.int .i64 a1) := by rw [← hc2]; rfl
  have z1 : c3[1]? = some (.int .i64 a1) := by rw [← hc3]; rfl
  have y2 : c2[2]? = some (.int .i64 a2) := by rw [← hc2]; rfl
  have z2 : c3[2]? = some (.int .i64 a2) := by rw [← hc3]; rfl
  have y3 : c2[3]? = some (.int .i64 a3) := by rw [← hc2]; rfl
  have z3 : c3[3]? = some (.int .i64 a3) := by rw [← hc3]; rfl
  have y4 : c2[4]? = some (.int .i64 a4) := by rw [← hc2]; rfl
  have z4 : c3[4]? = some (.int .i64 a4) := by rw [← hc3]; rfl
  have y5 : c2[5]? = some (.int .i64 a5) := by rw [← hc2]; rfl
  have z5 : c3[5]? = some (.int .i64 a5) := by rw [← hc3]; rfl
  have y6 : c2[6]? = some (.int .i64 a6) := by rw [← hc2]; rfl
  have z6 : c3[6]? = some (.int .i64 a6) := by rw [← hc3]; rfl
  have y7 : c2[7]? = some (.int .i64 a7) := by rw [← hc2]; rfl
  have z7 : c3[7]? = some (.int .i64 a7) := by rw [← hc3]; rfl
  have y8 : c2[8]? = some (.int .i64 a8) := by rw [← hc2]; rfl
  have z8 : c3[8]? = some (.int .i64 a8) := by rw [← hc3]; rfl
  have y9 : c2[9]? = some (.int .i64 a9) := by rw [← hc2]; rfl
  have z9 : c3[9]? = some (.int .i64 a9) := by rw [← hc3]; rfl
  have y10 : c2[10]? = some (.int .i64 a10) := by rw [← hc2]; rfl
  have z10 : c3[10]? = some (.int .i64 a10) := by rw [← hc3]; rfl
  have y11 : c2[11]? = some (.int .i64 a11) := by rw [← hc2]; rfl
  have z11 : c3[11]? = some (.int .i64 a11) := by rw [← hc3]; rfl
  have y12 : c2[12]? = some (.int .i64 a12) := by rw [← hc2]; rfl
  have z12 : c3[12]? = some (.int .i64 a12) := by rw [← hc3]; rfl
  have y13 : c2[13]? = some (.int .i64 a13) := by rw [← hc2]; rfl
  have z13 : c3[13]? = some (.int .i64 a13) := by rw [← hc3]; rfl
  have y14 : c2[14]? = some (.int .i64 a14) := by rw [← hc2]; rfl
  have z14 : c3[14]? = some (.int .i64 a14) := by rw [← hc3]; rfl
  have y15 : c2[15]? = some (.int .i64 a15) := by rw [← hc2]; rfl
  have z15 : c3[15]? = some (.int .i64 a15) := by rw [← hc3]; rfl
  have y16 : c2[16]? = some (.slice pb pn pc) := by rw [← hc2]; rfl
  have z16 : c3[16]? = some (.slice qb pn qc) := by rw [← hc3]; rfl
  have y17 : c2[17]? = some (.slice ub un uc) := by rw [← hc2]; rfl
  have z17 : c3[17]? = some (.slice tb un tc) := by rw [← hc3]; rfl
  have y18 : c2[18]? = some (.slice ob n3 oc) := by rw [← hc2]; rfl
  have z18 : c3[18]? = some (.slice rb n3 rc) := by rw [← hc3]; rfl
  have HD16 : Hid (∀ W, Bx2 g2 g3 c2 c3 45 w W → W.cell? ⟨g2, 16, none⟩ = some (.slice pb pn pc) ∧ W.cell? ⟨g3, 16, none⟩ = some (.slice qb pn qc)) := hid (fun W h => ⟨(cell_blk h.b2 16).trans y16, (cell_blk h.b3 16).trans z16⟩)
  have HD17 : Hid (∀ W, Bx2 g2 g3 c2 c3 45 w W → W.cell? ⟨g2, 17, none⟩ = some (.slice ub un uc) ∧ W.cell? ⟨g3, 17, none⟩ = some (.slice tb un tc)) := hid (fun W h => ⟨(cell_blk h.b2 17).trans y17, (cell_blk h.b3 17).trans z17⟩)
  have HD18 : Hid (∀ W, Bx2 g2 g3 c2 c3 45 w W → W.cell? ⟨g2, 18, none⟩ = some (.slice ob n3 oc) ∧ W.cell? ⟨g3, 18, none⟩ = some (.slice rb n3 rc)) := hid (fun W h => ⟨(cell_blk h.b2 18).trans y18, (cell_blk h.b3 18).trans z18⟩)
  have d0 := (cell_blk HB1.out.b2 0).trans y0
  have e0 := (cell_blk HB1.out.b3 0).trans z0
  have d1 := (cell_blk HB1.out.b2 1).trans y1
  have e1 := (cell_blk HB1.out.b3 1).trans z1
  have d2 := (cell_blk HB1.out.b2 2).trans y2
  have e2 := (cell_blk HB1.out.b3 2).trans z2
  have d3 := (cell_blk HB1.out.b2 3).trans y3
  have e3 := (cell_blk HB1.out.b3 3).trans z3
  have d4 := (cell_blk HB1.out.b2 4).trans y4
  have e4 := (cell_blk HB1.out.b3 4).trans z4
  have d5 := (cell_blk HB1.out.b2 5).trans y5
  have e5 := (cell_blk HB1.out.b3 5).trans z5
  have d6 := (cell_blk HB1.out.b2 6).trans y6
  have e6 := (cell_blk HB1.out.b3 6).trans z6
  have d7 := (cell_blk HB1.out.b2 7).trans y7
  have e7 := (cell_blk HB1.out.b3 7).trans z7
  have d8 := (cell_blk HB1.out.b2 8).trans y8
  have e8 := (cell_blk HB1.out.b3 8).trans z8
  have d9 := (cell_blk HB1.out.b2 9).trans y9
  have e9 := (cell_blk HB1.out.b3 9).trans z9
  have d10 := (cell_blk HB1.out.b2 10).trans y10
  have e10 := (cell_blk HB1.out.b3 10).trans z10
  have d11 := (cell_blk HB1.out.b2 11).trans y11
  have e11 := (cell_blk HB1.out.b3 11).trans z11
  have d12 := (cell_blk HB1.out.b2 12).trans y12
  have e12 := (cell_blk HB1.out.b3 12).trans z12
  have d13 := (cell_blk HB1.out.b2 13).trans y13
  have e13 := (cell_blk HB1.out.b3 13).trans z13
  have d14 := (cell_blk HB1.out.b2 14).trans y14
  have e14 := (cell_blk HB1.out.b3 14).trans z14
  have d15 := (cell_blk HB1.out.b2 15).trans y15
  have e15 := (cell_blk HB1.out.b3 15).trans z15
  have d16 := (cell_blk HB1.out.b2 16).trans y16
  have e16 := (cell_blk HB1.out.b3 16).trans z16
  have d17 := (cell_blk HB1.out.b2 17).trans y17
  have e17 := (cell_blk HB1.out.b3 17).trans z17
  have d18 := (cell_blk HB1.out.b2 18).trans y18
  have e18 := (cell_blk HB1.out.b3 18).trans z18
  have l2 := heap_lt HB1.out.b2
  have l3 := heap_lt HB1.out.b3
  clear y0 z0 y1 z1 y2 z2 y3 z3 y4 z4 y5 z5 y6 z6 y7 z7 y8 z8 y9 z9 y10 z10 y11 z11 y12 z12 y13 z13 y14 z14 y15 z15 y16 z16 y17 z17 y18 z18 h63 p2 q2 u2 t2 og pg p3 q3 u3 t3 p1 q1 u1 t1 j1 j2 j3 hc2 hc3 hW1 hg2 hg3
  go_enter Tryz.func36, Tryz.ntmps36
  go_upto_region 1 with fail
  try rw [HG2.out]
  try rw [HG3.out]
  try (erw [HW1.out])
  go_wp2_with fail
  clear d0 e0 d1 e1 d2 e2 d3 e3 d4 e4 d5 e5 d6 e6 d7 e7 d8 e8 d9 e9 d10 e10 d11 e11 d12 e12 d13 e13 d14 e14 d15 e15 d16 e16 d17 e17 d18 e18 l2 l3
  go_loopw [5] (fun iv wr => ∃ k : Nat, iv = .int .i64 (k : Int) ∧ k ≤ pn ∧ Hid (Bx2 g2 g3 c2 c3 45 w wr)) (fun iv _ => pn - (intOf iv).toNat)
  case atStart => exact ⟨0, rfl, Nat.zero_le _, HB1⟩
  case round =>
    obtain ⟨k, rfl, hk, HJ1⟩ := hrel
    clear HB1
    obtain ⟨d, e⟩ := HD16.out wr HJ1.out
    by_cases hlt : k < pn
    · have hltI : (k : Int) < (pn : Int) := by omega
      have hk1 : k < ps.length := by have := HYtghppkfopglgaaaGreatDoor.out.1; omega
      have hk2 : k < qs.length := by have := HYtghppkfopglgaaaGreatDoor.out.2.1; omega
      obtain ⟨B1, o1, rfl, hB1, hc1⟩ := HP.out.at okPg HJ1.out.bel k hk1
      obtain ⟨B2, o2, rfl, hB2, hc2⟩ := HQ.out.at okPg HJ1.out.bel k hk2
      have hn1 := HPN.out (ps[k]'hk1) (List.getElem_mem _)
      have hn2 := HQN.out (qs[k]'hk2) (List.getElem_mem _)
      have hff := HPP.out k hk1 hk2
      obtain ⟨⟨p, s1⟩, hx1⟩ : ∃ x, ps[k]'hk1 = x := ⟨_, rfl⟩
      obtain ⟨⟨p2, s2⟩, hx2⟩ : ∃ x, qs[k]'hk2 = x := ⟨_, rfl⟩
      rw [hx1] at hc1 hn1 hff
      rw [hx2] at hc2 hn2 hff
      simp only at hn1 hn2 hff
      subst hff
      have u0 := hc1 0 (.string p.a) rfl
      have v0 := hc2 0 (.string p.a) rfl
      have u1 := hc1 1 (.string p.p) rfl
      have v1 := hc2 1 (.string p.p) rfl
      have u2 := hc1 2 (.int .i64 p.st) rfl
      have v2 := hc2 2 (.int .i64 p.st) rfl
      have u3 := hc1 3 (.string p.vr) rfl
      have v3 := hc2 3 (.string p.vr) rfl
      have u4 := hc1 4 (s1.v) rfl
      have v4 := hc2 4 (s2.v) rfl
      simp only [show EPg.sz = 5 from rfl, Nat.add_zero] at u0 v0 u1 v1 u2 v2 u3 v3 u4 v4
      have HCP : Hid (∀ V, Below wr.heap.size wr V → (fun W => W.cell? ⟨g2, 16, none⟩ = some (.slice (some ⟨B1, o1, none⟩) pn pc) ∧ W.cell? ⟨g3, 16, none⟩ = some (.slice (some ⟨B2, o2, none⟩) pn qc) ∧ W.cell? ⟨B1, o1 + k * 5, none⟩ = some (.string p.a) ∧ W.cell? ⟨B1, o1 + k * 5 + 1, none⟩ = some (.string p.p) ∧ W.cell? ⟨B1, o1 + k * 5 + 2, none⟩ = some (.int .i64 p.st) ∧ W.cell? ⟨B1, o1 + k * 5 + 3, none⟩ = some (.string p.vr) ∧ W.cell? ⟨B1, o1 + k * 5 + 4, none⟩ = some (s1.v) ∧ W.cell? ⟨B2, o2 + k * 5, none⟩ = some (.string p.a) ∧ W.cell? ⟨B2, o2 + k * 5 + 1, none⟩ = some (.string p.p) ∧ W.cell? ⟨B2, o2 + k * 5 + 2, none⟩ = some (.int .i64 p.st) ∧ W.cell? ⟨B2, o2 + k * 5 + 3, none⟩ = some (.string p.vr) ∧ W.cell? ⟨B2, o2 + k * 5 + 4, none⟩ = some (s2.v)) V) := hid (fun V h => ⟨cell_below h d, cell_below h e, cell_below h u0, cell_below h u1, cell_below h u2, cell_below h u3, cell_below h u4, cell_below h v0, cell_below h v1, cell_below h v2, cell_below h v3, cell_below h v4⟩)
      have HSM : Hid (∀ V, Below wr.heap.size wr V → Calls Tryz.prog 52 #[.agg #[.string p.a, .string p.p, .int .i64 p.st, .string p.vr, s1.v], .agg #[.string p.a, .string p.p, .int .i64 p.st, .string p.vr, s2.v]] V fun e w' => e = .returned (.bool true) ∧ Below V.heap.size V w') := hid (fun V h => samePage_any p s1 s2 V (hn1.below ((HJ1.out.bel.trans (h.mono HJ1.out.bel.size)))) (hn2.below ((HJ1.out.bel.trans (h.mono HJ1.out.bel.size)))))
      clear hc1 hc2 hx1 hx2 hn1 hn2 u0 u1 u2 u3 u4 v0 v1 v2 v3 v4
      go_upto_region 6 with fail
      clear d e
      have kW : Below wr.heap.size wr wr.drew := (Below.refl _ _).drew
      refine wp_region_held_drew (S := (fun W => W.cell? ⟨g2, 16, none⟩ = some (.slice (some ⟨B1, o1, none⟩) pn pc) ∧ W.cell? ⟨g3, 16, none⟩ = some (.slice (some ⟨B2, o2, none⟩) pn qc) ∧ W.cell? ⟨B1, o1 + k * 5, none⟩ = some (.string p.a) ∧ W.cell? ⟨B1, o1 + k * 5 + 1, none⟩ = some (.string p.p) ∧ W.cell? ⟨B1, o1 + k * 5 + 2, none⟩ = some (.int .i64 p.st) ∧ W.cell? ⟨B1, o1 + k * 5 + 3, none⟩ = some (.string p.vr) ∧ W.cell? ⟨B1, o1 + k * 5 + 4, none⟩ = some (s1.v) ∧ W.cell? ⟨B2, o2 + k * 5, none⟩ = some (.string p.a) ∧ W.cell? ⟨B2, o2 + k * 5 + 1, none⟩ = some (.string p.p) ∧ W.cell? ⟨B2, o2 + k * 5 + 2, none⟩ = some (.int .i64 p.st) ∧ W.cell? ⟨B2, o2 + k * 5 + 3, none⟩ = some (.string p.vr) ∧ W.cell? ⟨B2, o2 + k * 5 + 4, none⟩ = some (s2.v))) (by kernel_rfl) (HCP.out _ kW) (fun hHeld => ?_)
      generalize World.drew _ = W at kW hHeld ⊢
      refine wpAnyH_take (i := 0) (oi := { dst := some 61, op := Op.fieldAddr 45 (Operand.tmp 2) 3, type := 0, pos := "ref.go:604", after := #[], guard := none }) (v := ?vv1) rfl (by kernel_rfl) (by kernel_rfl) (by kernel_rfl) (fun _ _ _ h => h) (Or.inl ⟨by rfl, ?hy1⟩) (by assumption) ?_
      case hy1 => (intro w hSw; (try dsimp only at hSw); go_simp; all_goals with_reducible rfl)
      try simp only [Act.put, List.setIfInBounds_toArray, List.set_cons_zero, List.set_cons_succ]
      refine wpAnyH_take (i := 1) (oi := { dst := some 62, op := Op.load 41 (Operand.tmp 61), type := 41, pos := "ref.go:604", after := #[{ on := 0, ground := Ground.data }], guard := none }) (v := ?vv2) rfl (by kernel_rfl) (by kernel_rfl) (by kernel_rfl) (fun _ _ _ h => h) (Or.inl ⟨by rfl, ?hy2⟩) (by assumption) ?_
      case hy2 => (intro w hSw; (try dsimp only at hSw); go_simp; all_goals with_reducible rfl)
      try simp only [Act.put, List.setIfInBounds_toArray, List.set_cons_zero, List.set_cons_succ]
      refine wpAnyH_take (i := 2) (oi := { dst := some 63, op := Op.move (Operand.tmp 5), type := 3, pos := "ref.go:604", after := #[], guard := none }) (v := ?vv3) rfl (by kernel_rfl) (by kernel_rfl) (by kernel_rfl) (fun _ _ _ h => h) (Or.inl ⟨by rfl, ?hy3⟩) (by assumption) ?_
      case hy3 => (intro w hSw; (try dsimp only at hSw); go_simp; all_goals with_reducible rfl)
      try simp only [Act.put, List.setIfInBounds_toArray, List.set_cons_zero, List.set_cons_succ]
      refine wpAnyH_take (i := 3) (oi := { dst := some 64, op := Op.indexAddr 41 (Operand.tmp 62) (Operand.tmp 63), type := 0, pos := "ref.go:604", after := #[{ on := 1, ground := Ground.data }, { on := 2, ground := Ground.data }], guard := none }) (v := ?vv4) rfl (by kernel_rfl) (by kernel_rfl) (by kernel_rfl) (fun _ _ _ h => h) (Or.inl ⟨by rfl, ?hy4⟩) (by assumption) ?_
      case hy4 => (intro w hSw; (try dsimp only at hSw); go_simp; all_goals with_reducible rfl)
      try simp only [Act.put, List.setIfInBounds_toArray, List.set_cons_zero, List.set_cons_succ]
      refine wpAnyH_take (i := 4) (oi := { dst := some 65, op := Op.load 34 (Operand.tmp 64), type := 34, pos := "ref.go:604", after := #[{ on := 3, ground := Ground.data }], guard := none }) (v := ?vv5) rfl (by kernel_rfl) (by kernel_rfl) (by kernel_rfl) (fun _ _ _ h => h) (Or.inl ⟨by rfl, ?hy5⟩) (by assumption) ?_
      case hy5 => (intro w hSw; (try dsimp only at hSw); go_simp; all_goals with_reducible rfl)
      try simp only [Act.put, List.setIfInBounds_toArray, List.set_cons_zero, List.set_cons_succ]
      refine wpAnyH_take (i := 5) (oi := { dst := some 66, op := Op.fieldAddr 45 (Operand.tmp 3) 3, type := 0, pos := "ref.go:604", after := #[], guard := none }) (v := ?vv6) rfl (by kernel_rfl) (by kernel_rfl) (by kernel_rfl) (fun _ _ _ h => h) (Or.inl ⟨by rfl, ?hy6⟩) (by assumption) ?_
      case hy6 => (intro w hSw; (try dsimp only at hSw); go_simp; all_goals with_reducible rfl)
      try simp only [Act.put, List.setIfInBounds_toArray, List.set_cons_zero, List.set_cons_succ]
      refine wpAnyH_take (i := 6) (oi := { dst := some 67, op := Op.load 41 (Operand.tmp 66), type := 41, pos := "ref.go:604", after := #[{ on := 5, ground := Ground.data }], guard := none }) (v := ?vv7) rfl (by kernel_rfl) (by kernel_rfl) (by kernel_rfl) (fun _ _ _ h => h) (Or.inl ⟨by rfl, ?hy7⟩) (by assumption) ?_
      case hy7 => (intro w hSw; (try dsimp only at hSw); go_simp; all_goals with_reducible rfl)
      try simp only [Act.put, List.setIfInBounds_toArray, List.set_cons_zero, List.set_cons_succ]
      refine wpAnyH_take (i := 7) (oi := { dst := some 68, op := Op.move (Operand.tmp 5), type := 3, pos := "ref.go:604", after := #[], guard := none }) (v := ?vv8) rfl (by kernel_rfl) (by kernel_rfl) (by kernel_rfl) (fun _ _ _ h => h) (Or.inl ⟨by rfl, ?hy8⟩) (by assumption) ?_
      case hy8 => (intro w hSw; (try dsimp only at hSw); go_simp; all_goals with_reducible rfl)
      try simp only [Act.put, List.setIfInBounds_toArray, List.set_cons_zero, List.set_cons_succ]
      refine wpAnyH_take (i := 8) (oi := { dst := some 69, op := Op.indexAddr 41 (Operand.tmp 67) (Operand.tmp 68), type := 0, pos := "ref.go:604", after := #[{ on := 6, ground := Ground.data }, { on := 7, ground := Ground.data }], guard := none }) (v := ?vv9) rfl (by kernel_rfl) (by kernel_rfl) (by kernel_rfl) (fun _ _ _ h => h) (Or.inl ⟨by rfl, ?hy9⟩) (by assumption) ?_
      case hy9 => (intro w hSw; (try dsimp only at hSw); go_simp; all_goals with_reducible rfl)
      try simp only [Act.put, List.setIfInBounds_toArray, List.set_cons_zero, List.set_cons_succ]
      refine wpAnyH_take (i := 9) (oi := { dst := some 70, op := Op.load 34 (Operand.tmp 69), type := 34, pos := "ref.go:604", after := #[{ on := 8, ground := Ground.data }], guard := none }) (v := ?vv10) rfl (by kernel_rfl) (by kernel_rfl) (by kernel_rfl) (fun _ _ _ h => h) (Or.inl ⟨by rfl, ?hy10⟩) (by assumption) ?_
      case hy10 => (intro w hSw; (try dsimp only at hSw); go_simp; all_goals with_reducible rfl)
      try simp only [Act.put, List.setIfInBounds_toArray, List.set_cons_zero, List.set_cons_succ]
      refine wpAnyH_ready (rs := [10]) (by kernel_rfl) (by simp) ?_
      refine AllReadyH.cons (o := { dst := some 71, op := Op.call { callee := Callee.value (Operand.func 52), args := #[Operand.tmp 65, Operand.tmp 70], argTypes := #[34, 34] }, type := 4, pos := "ref.go:604", after := #[{ on := 4, ground := Ground.data }, { on := 9, ground := Ground.data }], guard := none }) rfl (fun K hK => ?_) AllReadyH.nil
      go_simp
      refine (HSM.out _ kW).mono ?_
      rintro e' Wx ⟨rfl, bX⟩
      have kWx := kW.trans (bX.mono kW.size)
      clear bX
      go_wp2_with fail
      refine hK.out _ _ (HCP.out _ kWx) (fun hHeld => ?_)
      clear hK K
      try simp only [Act.put, List.setIfInBounds_toArray, List.set_cons_zero, List.set_cons_succ]
      refine wpAnyH_take (i := 11) (oi := { dst := some 72, op := Op.unOp UnOp.not 4 (Operand.tmp 71), type := 4, pos := "ref.go:604", after := #[{ on := 10, ground := Ground.data }], guard := none }) (v := ?vv11) rfl (by kernel_rfl) (by kernel_rfl) (by kernel_rfl) (fun _ _ _ h => h) (Or.inl ⟨by rfl, ?hy11⟩) (by assumption) ?_
      case hy11 => (intro w hSw; (try dsimp only at hSw); go_simp; all_goals with_reducible rfl)
      try simp only [Act.put, List.setIfInBounds_toArray, List.set_cons_zero, List.set_cons_succ]
      refine wpAnyH_done (by kernel_rfl) ?_ _
      have HJn := hid (HJ1.out.below kWx)
      clear hHeld kWx kW
      go_wp2_with fail
      go_roundw
      case rel => exact ⟨k + 1, rfl, by omega, HJn⟩
      case measure => show pn - ((k : Int) + 1).toNat < pn - ((k : Nat) : Int).toNat; omega
    · have hnl : ¬ (k : Int) < (pn : Int) := by omega
      go_wp2_with fail
      clear d e
      go_loopw [6] (fun iv wr => ∃ k : Nat, iv = .int .i64 (k : Int) ∧ k ≤ un ∧ Hid (Bx2 g2 g3 c2 c3 45 w wr)) (fun iv _ => un - (intOf iv).toNat)
      case atStart => exact ⟨0, rfl, Nat.zero_le _, HJ1⟩
      case round =>
        obtain ⟨k, rfl, hk, HJ2⟩ := hrel
        clear HJ1
        obtain ⟨d, e⟩ := HD17.out wr HJ2.out
        by_cases hlt : k < un
        · have hltI : (k : Int) < (un : Int) := by omega
          have hk1 : k < us.length := by have := HYtghppkfopglgaaaGreatDoor.out.2.2.1; omega
          have hk2 : k < ts.length := by have := HYtghppkfopglgaaaGreatDoor.out.2.2.2.1; omega
          obtain ⟨B1, o1, rfl, hB1, hc1⟩ := HU.out.at okRu HJ2.out.bel k hk1
          obtain ⟨B2, o2, rfl, hB2, hc2⟩ := HT.out.at okRu HJ2.out.bel k hk2
          have hn1 := HUN.out (us[k]'hk1) (List.getElem_mem _)
          have hn2 := HTN.out (ts[k]'hk2) (List.getElem_mem _)
          have hff := HUU.out k hk1 hk2
          obtain ⟨⟨p, s1⟩, hx1⟩ : ∃ x, us[k]'hk1 = x := ⟨_, rfl⟩
          obtain ⟨⟨p2, s2⟩, hx2⟩ : ∃ x, ts[k]'hk2 = x := ⟨_, rfl⟩
          rw [hx1] at hc1 hn1 hff
          rw [hx2] at hc2 hn2 hff
          simp only at hn1 hn2 hff
          subst hff
          have u0 := hc1 0 (.string p.of.a) rfl
          have v0 := hc2 0 (.string p.of.a) rfl
          have u1 := hc1 1 (.string p.of.p) rfl
          have v1 := hc2 1 (.string p.of.p) rfl
          have u2 := hc1 2 (s1.v) rfl
          have v2 := hc2 2 (s2.v) rfl
          simp only [show ERu.sz = 3 from rfl, Nat.add_zero] at u0 v0 u1 v1 u2 v2
          have HCP : Hid (∀ V, Below wr.heap.size wr V → (fun W => W.cell? ⟨g2, 17, none⟩ = some (.slice (some ⟨B1, o1, none⟩) un uc) ∧ W.cell? ⟨g3, 17, none⟩ = some (.slice (some ⟨B2, o2, none⟩) un tc) ∧ W.cell? ⟨B1, o1 + k * 3, none⟩ = some (.string p.of.a) ∧ W.cell? ⟨B1, o1 + k * 3 + 1, none⟩ = some (.string p.of.p) ∧ W.cell? ⟨B1, o1 + k * 3 + 2, none⟩ = some (s1.v) ∧ W.cell? ⟨B2, o2 + k * 3, none⟩ = some (.string p.of.a) ∧ W.cell? ⟨B2, o2 + k * 3 + 1, none⟩ = some (.string p.of.p) ∧ W.cell? ⟨B2, o2 + k * 3 + 2, none⟩ = some (s2.v)) V) := hid (fun V h => ⟨cell_below h d, cell_below h e, cell_below h u0, cell_below h u1, cell_below h u2, cell_below h v0, cell_below h v1, cell_below h v2⟩)
          have HSM : Hid (∀ V, Below wr.heap.size wr V → Calls Tryz.prog 53 #[.agg #[.string p.of.a, .string p.of.p, s1.v], .agg #[.string p.of.a, .string p.of.p, s2.v]] V fun e w' => e = .returned (.bool true) ∧ Below V.heap.size V w') := hid (fun V h => sameRule_any p s1 s2 V (hn1.below ((HJ2.out.bel.trans (h.mono HJ2.out.bel.size)))) (hn2.below ((HJ2.out.bel.trans (h.mono HJ2.out.bel.size)))))
          clear hc1 hc2 hx1 hx2 hn1 hn2 u0 u1 u2 v0 v1 v2
          go_upto_region 11 with fail
          clear d e
          have kW : Below wr.heap.size wr wr.drew := (Below.refl _ _).drew
          refine wp_region_held_drew (S := (fun W => W.cell? ⟨g2, 17, none⟩ = some (.slice (some ⟨B1, o1, none⟩) un uc) ∧ W.cell? ⟨g3, 17, none⟩ = some (.slice (some ⟨B2, o2, none⟩) un tc) ∧ W.cell? ⟨B1, o1 + k * 3, none⟩ = some (.string p.of.a) ∧ W.cell? ⟨B1, o1 + k * 3 + 1, none⟩ = some (.string p.of.p) ∧ W.cell? ⟨B1, o1 + k * 3 + 2, none⟩ = some (s1.v) ∧ W.cell? ⟨B2, o2 + k * 3, none⟩ = some (.string p.of.a) ∧ W.cell? ⟨B2, o2 + k * 3 + 1, none⟩ = some (.string p.of.p) ∧ W.cell? ⟨B2, o2 + k * 3 + 2, none⟩ = some (s2.v))) (by kernel_rfl) (HCP.out _ kW) (fun hHeld => ?_)
          generalize World.drew _ = W at kW hHeld ⊢
          refine wpAnyH_take (i := 0) (oi := { dst := some 80, op := Op.fieldAddr 45 (Operand.tmp 2) 4, type := 0, pos := "ref.go:609", after := #[], guard := none }) (v := ?vv12) rfl (by kernel_rfl) (by kernel_rfl) (by kernel_rfl) (fun _ _ _ h => h) (Or.inl ⟨by rfl, ?hy12⟩) (by assumption) ?_
          case hy12 => (intro w hSw; (try dsimp only at hSw); go_simp; all_goals with_reducible rfl)
          try simp only [Act.put, List.setIfInBounds_toArray, List.set_cons_zero, List.set_cons_succ]
          refine wpAnyH_take (i := 1) (oi := { dst := some 81, op := Op.load 42 (Operand.tmp 80), type := 42, pos := "ref.go:609", after := #[{ on := 0, ground := Ground.data }], guard := none }) (v := ?vv13) rfl (by kernel_rfl) (by kernel_rfl) (by kernel_rfl) (fun _ _ _ h => h) (Or.inl ⟨by rfl, ?hy13⟩) (by assumption) ?_
          case hy13 => (intro w hSw; (try dsimp only at hSw); go_simp; all_goals with_reducible rfl)
          try simp only [Act.put, List.setIfInBounds_toArray, List.set_cons_zero, List.set_cons_succ]
          refine wpAnyH_take (i := 2) (oi := { dst := some 82, op := Op.move (Operand.tmp 6), type := 3, pos := "ref.go:609", after := #[], guard := none }) (v := ?vv14) rfl (by kernel_rfl) (by kernel_rfl) (by kernel_rfl) (fun _ _ _ h => h) (Or.inl ⟨by rfl, ?hy14⟩) (by assumption) ?_
          case hy14 => (intro w hSw; (try dsimp only at hSw); go_simp; all_goals with_reducible rfl)
          try simp only [Act.put, List.setIfInBounds_toArray, List.set_cons_zero, List.set_cons_succ]
          refine wpAnyH_take (i := 3) (oi := { dst := some 83, op := Op.indexAddr 42 (Operand.tmp 81) (Operand.tmp 82), type := 0, pos := "ref.go:609", after := #[{ on := 1, ground := Ground.data }, { on := 2, ground := Ground.data }], guard := none }) (v := ?vv15) rfl (by kernel_rfl) (by kernel_rfl) (by kernel_rfl) (fun _ _ _ h => h) (Or.inl ⟨by rfl, ?hy15⟩) (by assumption) ?_
          case hy15 => (intro w hSw; (try dsimp only at hSw); go_simp; all_goals with_reducible rfl)
          try simp only [Act.put, List.setIfInBounds_toArray, List.set_cons_zero, List.set_cons_succ]
          refine wpAnyH_take (i := 4) (oi := { dst := some 84, op := Op.load 64 (Operand.tmp 83), type := 64, pos := "ref.go:609", after := #[{ on := 3, ground := Ground.data }], guard := none }) (v := ?vv16) rfl (by kernel_rfl) (by kernel_rfl) (by kernel_rfl) (fun _ _ _ h => h) (Or.inl ⟨by rfl, ?hy16⟩) (by assumption) ?_
          case hy16 => (intro w hSw; (try dsimp only at hSw); go_simp; all_goals with_reducible rfl)
          try simp only [Act.put, List.setIfInBounds_toArray, List.set_cons_zero, List.set_cons_succ]
          refine wpAnyH_take (i := 5) (oi := { dst := some 85, op := Op.fieldAddr 45 (Operand.tmp 3) 4, type := 0, pos := "ref.go:609", after := #[], guard := none }) (v := ?vv17) rfl (by kernel_rfl) (by kernel_rfl) (by kernel_rfl) (fun _ _ _ h => h) (Or.inl ⟨by rfl, ?hy17⟩) (by assumption) ?_
          case hy17 => (intro w hSw; (try dsimp only at hSw); go_simp; all_goals with_reducible rfl)
          try simp only [Act.put, List.setIfInBounds_toArray, List.set_cons_zero, List.set_cons_succ]
          refine wpAnyH_take (i := 6) (oi := { dst := some 86, op := Op.load 42 (Operand.tmp 85), type := 42, pos := "ref.go:609", after := #[{ on := 5, ground := Ground.data }], guard := none }) (v := ?vv18) rfl (by kernel_rfl) (by kernel_rfl) (by kernel_rfl) (fun _ _ _ h => h) (Or.inl ⟨by rfl, ?hy18⟩) (by assumption) ?_
          case hy18 => (intro w hSw; (try dsimp only at hSw); go_simp; all_goals with_reducible rfl)
          try simp only [Act.put, List.setIfInBounds_toArray, List.set_cons_zero, List.set_cons_succ]
          refine wpAnyH_take (i := 7) (oi := { dst := some 87, op := Op.move (Operand.tmp 6), type := 3, pos := "ref.go:609", after := #[], guard := none }) (v := ?vv19) rfl (by kernel_rfl) (by kernel_rfl) (by kernel_rfl) (fun _ _ _ h => h) (Or.inl ⟨by rfl, ?hy19⟩) (by assumption) ?_
          case hy19 => (intro w hSw; (try dsimp only at hSw); go_simp; all_goals with_reducible rfl)
          try simp only [Act.put, List.setIfInBounds_toArray, List.set_cons_zero, List.set_cons_succ]
          refine wpAnyH_take (i := 8) (oi := { dst := some 88, op := Op.indexAddr 42 (Operand.tmp 86) (Operand.tmp 87), type := 0, pos := "ref.go:609", after := #[{ on := 6, ground := Ground.data }, { on := 7, ground := Ground.data }], guard := none }) (v := ?vv20) rfl (by kernel_rfl) (by kernel_rfl) (by kernel_rfl) (fun _ _ _ h => h) (Or.inl ⟨by rfl, ?hy20⟩) (by assumption) ?_
          case hy20 => (intro w hSw; (try dsimp only at hSw); go_simp; all_goals with_reducible rfl)
          try simp only [Act.put, List.setIfInBounds_toArray, List.set_cons_zero, List.set_cons_succ]
          refine wpAnyH_take (i := 9) (oi := { dst := some 89, op := Op.load 64 (Operand.tmp 88), type := 64, pos := "ref.go:609", after := #[{ on := 8, ground := Ground.data }], guard := none }) (v := ?vv21) rfl (by kernel_rfl) (by kernel_rfl) (by kernel_rfl) (fun _ _ _ h => h) (Or.inl ⟨by rfl, ?hy21⟩) (by assumption) ?_
          case hy21 => (intro w hSw; (try dsimp only at hSw); go_simp; all_goals with_reducible rfl)
          try simp only [Act.put, List.setIfInBounds_toArray, List.set_cons_zero, List.set_cons_succ]
          refine wpAnyH_ready (rs := [10]) (by kernel_rfl) (by simp) ?_
          refine AllReadyH.cons (o := { dst := some 90, op := Op.call { callee := Callee.value (Operand.func 53), args := #[Operand.tmp 84, Operand.tmp 89], argTypes := #[64, 64] }, type := 4, pos := "ref.go:609", after := #[{ on := 4, ground := Ground.data }, { on := 9, ground := Ground.data }], guard := none }) rfl (fun K hK => ?_) AllReadyH.nil
          go_simp
          refine (HSM.out _ kW).mono ?_
          rintro e' Wx ⟨rfl, bX⟩
          have kWx := kW.trans (bX.mono kW.size)
          clear bX
          go_wp2_with fail
          refine hK.out _ _ (HCP.out _ kWx) (fun hHeld => ?_)
          clear hK K
          try simp only [Act.put, List.setIfInBounds_toArray, List.set_cons_zero, List.set_cons_succ]
          refine wpAnyH_take (i := 11) (oi := { dst := some 91, op := Op.unOp UnOp.not 4 (Operand.tmp 90), type := 4, pos := "ref.go:609", after := #[{ on := 10, ground := Ground.data }], guard := none }) (v := ?vv22) rfl (by kernel_rfl) (by kernel_rfl) (by kernel_rfl) (fun _ _ _ h => h) (Or.inl ⟨by rfl, ?hy22⟩) (by assumption) ?_
          case hy22 => (intro w hSw; (try dsimp only at hSw); go_simp; all_goals with_reducible rfl)
          try simp only [Act.put, List.setIfInBounds_toArray, List.set_cons_zero, List.set_cons_succ]
          refine wpAnyH_done (by kernel_rfl) ?_ _
          have HJn := hid (HJ2.out.below kWx)
          clear hHeld kWx kW
          go_wp2_with fail
          go_roundw
          case rel => exact ⟨k + 1, rfl, by omega, HJn⟩
          case measure => show un - ((k : Int) + 1).toNat < un - ((k : Nat) : Int).toNat; omega
        · have hnl : ¬ (k : Int) < (un : Int) := by omega
          go_wp2_with fail
          clear d e
          go_loopw [7] (fun iv wr => ∃ k : Nat, iv = .int .i64 (k : Int) ∧ k ≤ n3 ∧ Hid (Bx2 g2 g3 c2 c3 45 w wr)) (fun iv _ => n3 - (intOf iv).toNat)
          case atStart => exact ⟨0, rfl, Nat.zero_le _, HJ2⟩
          case round =>
            obtain ⟨k3, rfl, hk3, HJ3⟩ := hrel
            clear HJ2
            obtain ⟨d, e⟩ := HD18.out wr HJ3.out
            by_cases hlt3 : k3 < n3
            · have hltI : (k3 : Int) < (n3 : Int) := by omega
              have hkl : k3 < wo.length := by have := HYtghppkfopglgaaaGreatDoor.out.2.2.2.2; omega
              obtain ⟨B1, o1, rfl, hB1, hc1⟩ := HO.out.at okOg HJ3.out.bel k3 hkl
              obtain ⟨B2, o2, rfl, hB2, hc2⟩ := HG.out.at okOg HJ3.out.bel k3 hkl
              obtain ⟨x, hx⟩ : ∃ x, wo[k3]'hkl = x := ⟨_, rfl⟩
              rw [hx] at hc1 hc2
              have u0 := hc1 0 (.string x) rfl
              have v0 := hc2 0 (.string x) rfl
              simp only [show EOg.sz = 1 from rfl, Nat.add_zero, Nat.mul_one] at u0 v0
              clear hc1 hc2 hx hkl
              go_upto_region 16 with fail
              go_quiet (fail)
              go_wp2_with fail
              go_roundw
              case rel => exact ⟨k3 + 1, rfl, by omega, hid (HJ3.out.below (below_drewN (Below.refl _ wr) _))⟩
              case measure => show n3 - ((k3 : Int) + 1).toNat < n3 - ((k3 : Nat) : Int).toNat; omega
            · have hnl : ¬ (k3 : Int) < (n3 : Int) := by omega
              go_wp2_with fail
              go_ret
              exact ⟨rfl, HJ3.out.bel⟩
end Go.Proofs.YtghppkfopglgaaaGreatDoor
namespace Go.Proofs.YtghppkfopglgaaaGreatDoor
open Go.RowKit
set_option linter.unusedVariables false
set_option linter.unusedSimpArgs false
/-- four boxes -/
structure Bx4 (g2 g3 g4 g5 : Nat) (k2 k3 k4 k5 : Array Value) (w W : World) : Prop where
  bel : Below w.heap.size w W
  b2 : W.heap[g2]? = some (.cells k2 38 (0, 0))
  b3 : W.heap[g3]? = some (.cells k3 38 (0, 0))
  b4 : W.heap[g4]? = some (.cells k4 31 (0, 0))
  b5 : W.heap[g5]? = some (.cells k5 31 (0, 0))
theorem Bx4.below {g2 g3 g4 g5 : Nat} {k2 k3 k4 k5 : Array Value} {w W W' : World} (h : Bx4 g2 g3 g4 g5 k2 k3 k4 k5 w W) (hb : Below W.heap.size W W') : Bx4 g2 g3 g4 g5 k2 k3 k4 k5 w W' :=
  ⟨h.bel.trans (hb.mono h.bel.size), (hb.block _ (heap_lt h.b2)).trans h.b2, (hb.block _ (heap_lt h.b3)).trans h.b3, (hb.block _ (heap_lt h.b4)).trans h.b4, (hb.block _ (heap_lt h.b5)).trans h.b5⟩
theorem bx4_new (w W : World) (g2 g3 : Nat) (k2 k3 k4 k5 : Array Value) (h : Bx2 g2 g3 k2 k3 38 w W) : Bx4 g2 g3 W.heap.size (W.heap.size + 1) k2 k3 k4 k5 w ((W.alloc (.cells k4 31)).alloc (.cells k5 31)) := by
  have hb : Below W.heap.size W ((W.alloc (.cells k4 31)).alloc (.cells k5 31)) := bel2 _ _ _
  refine ⟨h.bel.trans (hb.mono h.bel.size), (hb.block _ (heap_lt h.b2)).trans h.b2, (hb.block _ (heap_lt h.b3)).trans h.b3, ?_, fresh2 _ _ _⟩
  rw [heap_al, if_neg (by simp), heap_al, if_pos rfl]
set_option maxRecDepth 100000 in
set_option maxHeartbeats 16000000 in
theorem sameMove_any (x : Mv) (sf sc tf tc : Sl) (w : World) (h1 : In EFd w sf.v x.rq.fs) (h2 : In EFd w tf.v x.rq.fs) (h3 : In ECh w sc.v x.pg.ch) (h4 : In ECh w tc.v x.pg.ch) : Calls Tryz.prog 37 #[.agg (mvA x sf.v sc.v), .agg (mvA x tf.v tc.v)] w fun e w' => e = .returned (.bool true) ∧ Below w.heap.size w w' := by
  obtain ⟨mk, mn, ⟨qm, qs, qa, qp, qb, fs⟩, ⟨pa, pp, pst, pv, ch⟩, ⟨st, spp, ss, sw, sf', sl⟩, mb⟩ := x
  simp only at h1 h2 h3 h4
  have HP := hid (fun V (hV : Below w.heap.size w V) => samePage_any ⟨pa, pp, pst, pv, ch⟩ sc tc V (h3.below hV) (h4.below hV))
  obtain ⟨f1, fn, fc⟩ := sf
  obtain ⟨f2, fn2, fd⟩ := tf
  obtain ⟨c1, cn, cc⟩ := sc
  obtain ⟨c2, cn2, cd⟩ := tc
  have j1 : fn = fs.length := In.len h1
  have j2 : fn = fn2 := by have : fn2 = fs.length := In.len h2; omega
  have j3 : cn = cn2 := by have : cn = ch.length := In.len h3; have : cn2 = ch.length := In.len h4; omega
  subst j2; subst j3
  have HFN := hid j1
  have HF1 := hid h1
  have HF2 := hid h2
  have hf9 : fn ≤ 9223372036854775807 := by
    obtain ⟨_, _, e, h5, h6⟩ := h1.slice
    have := (Value.slice.inj e).2.1
    omega
  obtain ⟨k2, hk2⟩ : ∃ c, mvA ⟨mk, mn, ⟨qm, qs, qa, qp, qb, fs⟩, ⟨pa, pp, pst, pv, ch⟩, ⟨st, spp, ss, sw, sf', sl⟩, mb⟩ (Sl.v ⟨f1, fn, fc⟩) (Sl.v ⟨c1, cn, cc⟩) = c := ⟨_, rfl⟩
  obtain ⟨k3, hk3⟩ : ∃ c, mvA ⟨mk, mn, ⟨qm, qs, qa, qp, qb, fs⟩, ⟨pa, pp, pst, pv, ch⟩, ⟨st, spp, ss, sw, sf', sl⟩, mb⟩ (Sl.v ⟨f2, fn, fd⟩) (Sl.v ⟨c2, cn, cd⟩) = c := ⟨_, rfl⟩
  rw [hk2, hk3]
  obtain ⟨k4, hk4⟩ : ∃ c : Array Value, #[.string qm, .string qs, .string qa, .string qp, .slice f1 fn fc, .string qb] = c := ⟨_, rfl⟩
  obtain ⟨k5, hk5⟩ : ∃ c : Array Value, #[.string qm, .string qs, .string qa, .string qp, .slice f2 fn fd, .string qb] = c := ⟨_, rfl⟩
  obtain ⟨g2, hg2⟩ : ∃ g2, w.heap.size = g2 := ⟨_, rfl⟩
  obtain ⟨g3, hg3⟩ : ∃ g3, g2 + 1 = g3 := ⟨_, rfl⟩
  obtain ⟨W1, hW1⟩ : ∃ V, (w.alloc (.cells k2 38)).alloc (.cells k3 38) = V := ⟨_, rfl⟩
  have HB1 : Hid (Bx2 g2 g3 k2 k3 38 w W1) := hid (by rw [← hW1, ← hg3, ← hg2]; exact bx2_new w _ _ _)
  obtain ⟨g4, hg4⟩ : ∃ g4, W1.heap.size = g4 := ⟨_, rfl⟩
  obtain ⟨g5, hg5⟩ : ∃ g5, g4 + 1 = g5 := ⟨_, rfl⟩
  obtain ⟨W2, hW2⟩ : ∃ V, (W1.alloc (.cells k4 31)).alloc (.cells k5 31) = V := ⟨_, rfl⟩
  have HB2 : Hid (Bx4 g2 g3 g4 g5 k2 k3 k4 k5 w W2) := hid (by rw [← hW2, ← hg5, ← hg4]; exact bx4_new w W1 g2 g3 k2 k3 k4 k5 HB1.out)
  have HW2 : Hid ((W1.alloc (.cells #[.string qm, .string qs, .string qa, .string qp, .slice f1 fn fc, .string qb] 31)).alloc (.cells #[.string qm, .string qs, .string qa, .string qp, .slice f2 fn fd, .string qb] 31) = W2) := hid (by rw [hk4, hk5]; exact hW2)
  have HW1 := hid hW1
  have HG2 := hid hg2
  have HG3 := hid hg3
  have HG4 := hid hg4
  have HG5 := hid hg5
  have y0 : k2[0]? = some (.int .i64 mk) := by rw [← hk2]; rfl
  have z0 : k3[0]? = some (.int .i64 mk) := by rw [← hk3]; rfl
  have y1 : k2[1]? = some (.int .i64 mn) := by rw [← hk2]; rfl
  have z1 : k3[1]? = some (.int .i64 mn) := by rw [← hk3]; rfl
  have y2 : k2[2]? = some (.string qm) := by rw [← hk2]; rfl
  have z2 : k3[2]? = some (.string qm) := by rw [← hk3]; rfl
  have y3 : k2[3]? = some (.string qs) := by rw [← hk2]; rfl
  have z3 : k3[3]? = some (.string qs) := by rw [← hk3]; rfl
  have y4 : k2[4]? = some (.string qa) := by rw [← hk2]; rfl
  have z4 : k3[4]? = some (.string qa) := by rw [← hk3]; rfl
  have y5 : k2[5]? = some (.string qp) := by rw [← hk2]; rfl
  have z5 : k3[5]? = some (.string qp) := by rw [← hk3]; rfl
  have y6 : k2[6]? = some (.slice f1 fn fc) := by rw [← hk2]; rfl
  have z6 : k3[6]? = some (.slice f2 fn fd) := by rw [← hk3]; rfl
  have y7 : k2[7]? = some (.string qb) := by rw [← hk2]; rfl
  have z7 : k3[7]? = some (.string qb) := by rw [← hk3]; rfl
  have y8 : k2[8]? = some (.string pa) := by rw [← hk2]; rfl
  have z8 : k3[8]? = some (.string pa) := by rw [← hk3]; rfl
  have y9 : k2[9]? = some (.string pp) := by rw [← hk2]; rfl
  have z9 : k3[9]? = some (.string pp) := by rw [← hk3]; rfl
  have y10 : k2[10]? = some (.int .i64 pst) := by rw [← hk2]; rfl
  have z10 : k3[10]? = some (.int .i64 pst) := by rw [← hk3]; rfl
  have y11 : k2[11]? = some (.string pv) := by rw [← hk2]; rfl
  have z11 : k3[11]? = some (.string pv) := by rw [← hk3]; rfl
  have y12 : k2[12]? = some (.slice c1 cn cc) := by rw [← hk2]; rfl
  have z12 : k3[12]? = some (.slice c2 cn cd) := by rw [← hk3]; rfl
  have y13 : k2[13]? = some (.int .i64 st) := by rw [← hk2]; rfl
  have z13 : k3[13]? = some (.int .i64 st) := by rw [← hk3]; rfl
  have y14 : k2[14]? = some (.int .i64 spp) := by rw [← hk2]; rfl
  have z14 : k3[14]? = some (.int .i64 spp) := by rw [← hk3]; rfl
  have y15 : k2[15]? = some (.int .i64 ss) := by rw [← hk2]; rfl
  have z15 : k3[15]? = some (.int .i64 ss) := by rw [← hk3]; rfl
  have y16 : k2[16]? = some (.int .i64 sw) := by rw [← hk2]; rfl
  have z16 : k3[16]? = some (.int .i64 sw) := by rw [← hk3]; rfl
  have y17 : k2[17]? = some (.int .i64 sf') := by rw [← hk2]; rfl
  have z17 : k3[17]? = some (.int .i64 sf') := by rw [← hk3]; rfl
  have y18 : k2[18]? = some (.int .i64 sl) := by rw [← hk2]; rfl
  have z18 : k3[18]? = some (.int .i64 sl) := by rw [← hk3]; rfl
  have y19 : k2[19]? = some (.string mb) := by rw [← hk2]; rfl
  have z19 : k3[19]? = some (.string mb) := by rw [← hk3]; rfl
  have m0 : k4[0]? = some (.string qm) := by rw [← hk4]; rfl
  have n0 : k5[0]? = some (.string qm) := by rw [← hk5]; rfl
  have m1 : k4[1]? = some (.string qs) := by rw [← hk4]; rfl
  have n1 : k5[1]? = some (.string qs) := by rw [← hk5]; rfl
  have m2 : k4[2]? = some (.string qa) := by rw [← hk4]; rfl
  have n2 : k5[2]? = some (.string qa) := by rw [← hk5]; rfl
  have m3 : k4[3]? = some (.string qp) := by rw [← hk4]; rfl
  have n3 : k5[3]? = some (.string qp) := by rw [← hk5]; rfl
  have m4 : k4[4]? = some (.slice f1 fn fc) := by rw [← hk4]; rfl
  have n4 : k5[4]? = some (.slice f2 fn fd) := by rw [← hk5]; rfl
  have m5 : k4[5]? = some (.string qb) := by rw [← hk4]; rfl
  have n5 : k5[5]? = some (.string qb) := by rw [← hk5]; rfl
  have HD : Hid (∀ W, Bx4 g2 g3 g4 g5 k2 k3 k4 k5 w W → W.cell? ⟨g4, 0, none⟩ = some (.string qm) ∧ W.cell? ⟨g5, 0, none⟩ = some (.string qm) ∧ W.cell? ⟨g4, 1, none⟩ = some (.string qs) ∧ W.cell? ⟨g5, 1, none⟩ = some (.string qs) ∧ W.cell? ⟨g4, 2, none⟩ = some (.string qa) ∧ W.cell? ⟨g5, 2, none⟩ = some (.string qa) ∧ W.cell? ⟨g4, 3, none⟩ = some (.string qp) ∧ W.cell? ⟨g5, 3, none⟩ = some (.string qp) ∧ W.cell? ⟨g4, 4, none⟩ = some (.slice f1 fn fc) ∧ W.cell? ⟨g5, 4, none⟩ = some (.slice f2 fn fd) ∧ W.cell? ⟨g4, 5, none⟩ = some (.string qb) ∧ W.cell? ⟨g5, 5, none⟩ = some (.string qb)) := hid (fun W h => ⟨(cell_blk h.b4 0).trans m0, (cell_blk h.b5 0).trans n0, (cell_blk h.b4 1).trans m1, (cell_blk h.b5 1).trans n1, (cell_blk h.b4 2).trans m2, (cell_blk h.b5 2).trans n2, (cell_blk h.b4 3).trans m3, (cell_blk h.b5 3).trans n3, (cell_blk h.b4 4).trans m4, (cell_blk h.b5 4).trans n4, (cell_blk h.b4 5).trans m5, (cell_blk h.b5 5).trans n5⟩)
  have HE : Hid (∀ W, Bx4 g2 g3 g4 g5 k2 k3 k4 k5 w W → W.cell? ⟨g2, 0, none⟩ = some (.int .i64 mk) ∧ W.cell? ⟨g3, 0, none⟩ = some (.int .i64 mk) ∧ W.cell? ⟨g2, 1, none⟩ = some (.int .i64 mn) ∧ W.cell? ⟨g3, 1, none⟩ = some (.int .i64 mn) ∧ W.cell? ⟨g2, 8, none⟩ = some (.string pa) ∧ W.cell? ⟨g3, 8, none⟩ = some (.string pa) ∧ W.cell? ⟨g2, 9, none⟩ = some (.string pp) ∧ W.cell? ⟨g3, 9, none⟩ = some (.string pp) ∧ W.cell? ⟨g2, 10, none⟩ = some (.int .i64 pst) ∧ W.cell? ⟨g3, 10, none⟩ = some (.int .i64 pst) ∧ W.cell? ⟨g2, 11, none⟩ = some (.string pv) ∧ W.cell? ⟨g3, 11, none⟩ = some (.string pv) ∧ W.cell? ⟨g2, 12, none⟩ = some (.slice c1 cn cc) ∧ W.cell? ⟨g3, 12, none⟩ = some (.slice c2 cn cd) ∧ W.cell? ⟨g2, 13, none⟩ = some (.int .i64 st) ∧ W.cell? ⟨g3, 13, none⟩ = some (.int .i64 st) ∧ W.cell? ⟨g2, 14, none⟩ = some (.int .i64 spp) ∧ W.cell? ⟨g3, 14, none⟩ = some (.int .i64 spp) ∧ W.cell? ⟨g2, 15, none⟩ = some (.int .i64 ss) ∧ W.cell? ⟨g3, 15, none⟩ = some (.int .i64 ss) ∧ W.cell? ⟨g2, 16, none⟩ = some (.int .i64 sw) ∧ W.cell? ⟨g3, 16, none⟩ = some (.int .i64 sw) ∧ W.cell? ⟨g2, 17, none⟩ = some (.int .i64 sf') ∧ W.cell? ⟨g3, 17, none⟩ = some (.int .i64 sf') ∧ W.cell? ⟨g2, 18, none⟩ = some (.int .i64 sl) ∧ W.cell? ⟨g3, 18, none⟩ = some (.int .i64 sl) ∧ W.cell? ⟨g2, 19, none⟩ = some (.string mb) ∧ W.cell? ⟨g3, 19, none⟩ = some (.string mb)) := hid (fun W h => ⟨(cell_blk h.b2 0).trans y0, (cell_blk h.b3 0).trans z0, (cell_blk h.b2 1).trans y1, (cell_blk h.b3 1).trans z1, (cell_blk h.b2 8).trans y8, (cell_blk h.b3 8).trans z8, (cell_blk h.b2 9).trans y9, (cell_blk h.b3 9).trans z9, (cell_blk h.b2 10).trans y10, (cell_blk h.b3 10).trans z10, (cell_blk h.b2 11).trans y11, (cell_blk h.b3 11).trans z11, (cell_blk h.b2 12).trans y12, (cell_blk h.b3 12).trans z12, (cell_blk h.b2 13).trans y13, (cell_blk h.b3 13).trans z13, (cell_blk h.b2 14).trans y14, (cell_blk h.b3 14).trans z14, (cell_blk h.b2 15).trans y15, (cell_blk h.b3 15).trans z15, (cell_blk h.b2 16).trans y16, (cell_blk h.b3 16).trans z16, (cell_blk h.b2 17).trans y17, (cell_blk h.b3 17).trans z17, (cell_blk h.b2 18).trans y18, (cell_blk h.b3 18).trans z18, (cell_blk h.b2 19).trans y19, (cell_blk h.b3 19).trans z19⟩)
  have d2 := (cell_blk HB1.out.b2 2).trans y2
  have e2 := (cell_blk HB1.out.b3 2).trans z2
  have d3 := (cell_blk HB1.out.b2 3).trans y3
  have e3 := (cell_blk HB1.out.b3 3).trans z3
  have d4 := (cell_blk HB1.out.b2 4).trans y4
  have e4 := (cell_blk HB1.out.b3 4).trans z4
  have d5 := (cell_blk HB1.out.b2 5).trans y5
  have e5 := (cell_blk HB1.out.b3 5).trans z5
  have d6 := (cell_blk HB1.out.b2 6).trans y6
  have e6 := (cell_blk HB1.out.b3 6).trans z6
  have d7 := (cell_blk HB1.out.b2 7).trans y7
  have e7 := (cell_blk HB1.out.b3 7).trans z7
  have l2 := heap_lt HB1.out.b2
  have l3 := heap_lt HB1.out.b3
  clear y0 z0 y1 z1 y2 z2 y3 z3 y4 z4 y5 z5 y6 z6 y7 z7 y8 z8 y9 z9 y10 z10 y11 z11 y12 z12 y13 z13 y14 z14 y15 z15 y16 z16 y17 z17 y18 z18 y19 z19 m0 n0 m1 n1 m2 n2 m3 n3 m4 n4 m5 n5 h1 h2 h3 h4 j1 hk2 hk3 hk4 hk5 hW1 hW2 hg2 hg3 hg4 hg5
  go_enter Tryz.func37, Tryz.ntmps37
  go_upto_region 1 with fail
  try rw [HG2.out]
  try rw [HG3.out]
  try (erw [HW1.out])
  go_upto_region 3 with fail
  try rw [HG4.out]
  try rw [HG5.out]
  try (erw [HW2.out])
  clear d2 e2 d3 e3 d4 e4 d5 e5 d6 e6 d7 e7 l2 l3
  obtain ⟨d0, e0, d1, e1, d8, e8, d9, e9, d10, e10, d11, e11, d12, e12, d13, e13, d14, e14, d15, e15, d16, e16, d17, e17, d18, e18, d19, e19⟩ := HE.out W2 HB2.out
  go_wp2_with fail
  go_at_call 52
  refine (HP.out W2 HB2.out.bel).mono ?_
  rintro e V ⟨rfl, hb⟩
  have HB3 := hid (HB2.out.below hb)
  clear hb d0 e0 d1 e1 d8 e8 d9 e9 d10 e10 d11 e11 d12 e12 d13 e13 d14 e14 d15 e15 d16 e16 d17 e17 d18 e18 d19 e19
  obtain ⟨d0, e0, d1, e1, d2, e2, d3, e3, d4, e4, d5, e5⟩ := HD.out V HB3.out
  go_wp2_with fail
  clear d0 e0 d1 e1 d2 e2 d3 e3 d4 e4 d5 e5
  go_loopw [7] (fun iv wr => ∃ k : Nat, iv = .int .i64 (k : Int) ∧ k ≤ fn ∧ Hid (Bx4 g2 g3 g4 g5 k2 k3 k4 k5 w wr)) (fun iv _ => fn - (intOf iv).toNat)
  case atStart => exact ⟨0, rfl, Nat.zero_le _, HB3⟩
  case round =>
    obtain ⟨k, rfl, hk, HJ⟩ := hrel
    clear HB3 HB2 HB1
    obtain ⟨d0, e0, d1, e1, d2, e2, d3, e3, d4, e4, d5, e5⟩ := HD.out wr HJ.out
    clear d0 e0 d1 e1 d2 e2 d3 e3 d5 e5
    by_cases hlt : k < fn
    · have hltI : (k : Int) < (fn : Int) := by omega
      have hkl : k < fs.length := by have := HFN.out; omega
      obtain ⟨B1, o1, rfl, hB1, hc1⟩ := HF1.out.at okFd HJ.out.bel k hkl
      obtain ⟨B2, o2, rfl, hB2, hc2⟩ := HF2.out.at okFd HJ.out.bel k hkl
      obtain ⟨x, hx⟩ : ∃ x, fs[k]'hkl = x := ⟨_, rfl⟩
      rw [hx] at hc1 hc2
      have u0 := hc1 0 (.string x.n) rfl
      have v0 := hc2 0 (.string x.n) rfl
      have u1 := hc1 1 (.string x.v) rfl
      have v1 := hc2 1 (.string x.v) rfl
      have u2 := hc1 2 (.bool x.nv) rfl
      have v2 := hc2 2 (.bool x.nv) rfl
      simp only [show EFd.sz = 3 from rfl, Nat.add_zero] at u0 u1 u2 v0 v1 v2
      clear hc1 hc2 hx hkl
      go_upto_region 8 with fail
      go_quiet (fail)
      go_wp2_with fail
      go_roundw
      case rel => exact ⟨k + 1, rfl, by omega, hid (HJ.out.below (below_drewN (Below.refl _ wr) _))⟩
      case measure => show fn - ((k : Int) + 1).toNat < fn - ((k : Nat) : Int).toNat; omega
    · have hnl : ¬ (k : Int) < (fn : Int) := by omega
      go_wp2_with fail
      go_ret
      exact ⟨rfl, HJ.out.bel⟩
end Go.Proofs.YtghppkfopglgaaaGreatDoor
namespace Go.Proofs.YtghppkfopglgaaaGreatDoor
open Go.RowKit
set_option linter.unusedVariables false
set_option linter.unusedSimpArgs false
def Sb (a b : Rd) : Prop := ∀ x ∈ a.l, x ∈ b.l
theorem Sb.refl (a : Rd) : Sb a a := fun _ h => h
theorem Sb.tr {a b c : Rd} (h : Sb a b) (k : Sb b c) : Sb a c := fun x hx => k x (h x hx)
theorem Sb.no (a : Rd) : Sb Rd.no a := fun x hx => absurd hx (by simp [Rd.no])
theorem nx_sb (r : Rd) (k : Nat) : Sb (r.nx k).2 r := by
  unfold Rd.nx
  split
  · exact Sb.no r
  · split
    · rename_i h _; intro x hx; rw [h]; exact List.mem_cons_of_mem _ hx
    · exact Sb.no r
theorem nu_sb (r : Rd) : Sb r.nu.2 r := by
  unfold Rd.nu
  split
  · exact nx_sb r 0
  · exact Sb.no r
theorem sk_sb (r : Rd) (s : ByteArray) : Sb (r.sk s).2 r := by
  unfold Rd.sk
  split
  · exact Sb.refl _
  · split
    · rename_i h _; intro x hx; rw [h]; exact List.mem_cons_of_mem _ hx
    · exact Sb.refl _
theorem nm_sb (r : Rd) (s : ByteArray) : Sb (r.nm s) r := by
  unfold Rd.nm
  split
  · exact sk_sb r s
  · exact Sb.no r
theorem loop_sb {α : Type} {f : Rd → Option (α × Rd)} (h : ∀ r x r1, f r = some (x, r1) → Sb r1 r) : ∀ (n : Nat) (r : Rd), Sb (loopR f n r).2 r
  | 0, r => Sb.refl _
  | n + 1, r => by
    unfold loopR
    cases e : f r with
    | none => exact Sb.refl _
    | some p => exact (loop_sb h n p.2).tr (h r p.1 p.2 e)
theorem lp_sb {α : Type} {f : Rd → Option (α × Rd)} (h : ∀ r x r1, f r = some (x, r1) → Sb r1 r) (r : Rd) : Sb (lpS f r).2 r := loop_sb h _ r
theorem fd_sb : ∀ r x r1, fdR r = some (x, r1) → Sb r1 r := fun r x r1 h => by
  unfold fdR at h
  split at h
  · cases h
  · simp only [Option.some.injEq, Prod.mk.injEq] at h
    obtain ⟨_, rfl⟩ := h
    exact (nx_sb _ 1).tr ((nx_sb _ 1).tr (sk_sb r _))
theorem ch_sb : ∀ r x r1, chR r = some (x, r1) → Sb r1 r := fun r x r1 h => by
  unfold chR at h
  split at h
  · cases h
  · simp only [Option.some.injEq, Prod.mk.injEq] at h
    obtain ⟨_, rfl⟩ := h
    exact (nx_sb _ 1).tr (nx_sb r 1)
theorem pg_sb (r : Rd) : Sb r.pg.2 r := (lp_sb ch_sb (((r.nx 1).2.nx 1).2.nu.2.nx 1).2).tr ((nx_sb _ 1).tr ((nu_sb _).tr ((nx_sb _ 1).tr (nx_sb r 1))))
theorem rq_sb (r : Rd) : Sb r.rq.2 r := (lp_sb fd_sb (((((r.nx 1).2.nx 1).2.nx 1).2.nx 1).2.nx 1).2).tr ((nx_sb _ 1).tr ((nx_sb _ 1).tr ((nx_sb _ 1).tr ((nx_sb _ 1).tr (nx_sb r 1)))))
theorem si_sb (r : Rd) : Sb r.si.2 r := (nu_sb _).tr ((nu_sb _).tr ((nu_sb _).tr ((nu_sb _).tr ((nu_sb _).tr (nu_sb r)))))
set_option maxRecDepth 100000 in
theorem mv_sb (r : Rd) (s : ByteArray) : Sb (r.mv s).2 r := by
  unfold Rd.mv
  split
  · exact Sb.no r
  · exact rq_sb r
  · exact pg_sb r
  · exact si_sb r
  · exact (nx_sb _ 1).tr (nu_sb r)
  · exact nu_sb r
/-- no word begins a world -/
def NoW (l : List Wd) : Prop := ∀ x ∈ l, x.k = 0 → kindOf x.t ≠ 1
theorem noW_nx {r : Rd} (h : NoW r.l) : kindOf (r.nx 0).1 ≠ 1 := by
  unfold Rd.nx
  split
  · decide +kernel
  · split
    · rename_i hl hk
      exact h _ (by rw [hl]; exact List.mem_cons_self ..) hk
    · decide +kernel
set_option maxRecDepth 100000 in
theorem noW_cm {r : Rd} (h : NoW r.l) : NoW r.cm.2.l := by
  have hn := noW_nx h
  have : Sb r.cm.2 r := by
    refine (nx_sb r.cm1.2 2).tr ?_
    have h0 := nx_sb r 0
    unfold Rd.cm1
    simp only
    split
    · exact (mv_sb _ _).tr h0
    · rename_i e; exact absurd e hn
    · exact (nu_sb _).tr h0
    · show Sb (if ((r.nx 0).2.sk nServer).1 = true then ((r.nx 0).2.sk nServer).2 else (r.nx 0).2.nm nClient) r
      split
      · exact (sk_sb _ _).tr h0
      · exact (nm_sb _ _).tr h0
    · exact h0
  exact fun x hx => h x (this x hx)
end Go.Proofs.YtghppkfopglgaaaGreatDoor
