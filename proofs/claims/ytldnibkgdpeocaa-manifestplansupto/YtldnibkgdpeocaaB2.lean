/- manifest.Of. -/
import Derived.Test.YtldnibkgdpeocaaB1
import Derived.Deep.Cut
namespace Go.Proofs.Ytldnibkgdpeocaa
open Go.RowKit Go.Maps
open Go.Shelf
set_option linter.unusedVariables false
set_option linter.unusedSimpArgs false

/-- a rule without its place in memory -/
abbrev Pu := Tg × List Tg
def puR (r : Ru) : Pu := (r.t, r.l)
def ndB (l : List Tg) : Bool := !twB [] l
theorem ndB_iff {l : List Tg} : ndB l = true ↔ l.Nodup := by
  unfold ndB
  rw [Bool.not_eq_true', ← Bool.not_eq_true, twB_of]
  rw [List.nodup_iff_pairwise_ne, List.pairwise_iff_getElem]
  constructor
  · intro h i j hi hj hij e
    exact h ⟨j, hj, by rw [← e, List.nil_append, List.mem_take_iff_getElem]; exact ⟨i, by omega, rfl⟩⟩
  · rintro h ⟨k, hk, hm⟩
    rw [List.nil_append, List.mem_take_iff_getElem] at hm
    obtain ⟨i, hi, e⟩ := hm
    exact h i k (by omega) hk (by omega) e
/-- what Of tells -/
def ofE (rs : List Ru) : Int :=
  if 64 < rs.length then 3 else if rs.any longB = true then 3 else if rs.any wrongB = true then 180 else if rs.any twiceB = true then 7 else if ndB (rs.map Ru.t) = true then 0 else 7
/-- a manifest of these rules, made since w -/
def Mn (w w' : World) (g : Nat) (ps : List Pu) : Prop := ∃ b L, Mf w' w.heap.size w'.heap.size g b L ∧ (L.map Ru.t).Nodup ∧ L.map puR = ps ∧ g ≠ b
def OfPost (rs : List Ru) (w : World) (e : Ending) (w' : World) : Prop :=
  Below w.heap.size w w' ∧ ((ofE rs ≠ 0 ∧ e = .returned (.tuple #[.pointer none, .int .i64 (ofE rs)])) ∨ (ofE rs = 0 ∧ ∃ g, e = .returned (.tuple #[.pointer (some ⟨g, 0, none⟩), .int .i64 0]) ∧ Mn w w' g (rs.map puR)))

theorem cons_tz {m : Int} {s : ByteArray} (h : consB m s = true) : (s.size : Int) ≤ m := by
  unfold consB at h
  simp only [Bool.and_eq_true, decide_eq_true_eq] at h
  exact h.1.2
theorem good_tz {t : Tg} (h : tgB t = true) : tz t := by
  unfold tgB at h
  simp only [Bool.and_eq_true] at h
  have h1 := cons_tz h.1.1
  have h2 := cons_tz h.1.2
  exact ⟨by omega, by omega⟩
theorem good_rules {rs : List Ru} (h1 : rs.any longB = false) (h2 : rs.any wrongB = false) : RuZ rs := by
  intro r hr
  have a1 := List.any_eq_false.1 h1 r hr
  have a2 := List.any_eq_false.1 h2 r hr
  unfold longB at a1
  unfold wrongB at a2
  simp only [Bool.not_eq_true, Bool.or_eq_false_iff, decide_eq_false_iff_not] at a1 a2
  refine ⟨good_tz ?_, by omega, fun c hc => good_tz ?_⟩
  · have := a2.1
    unfold badT at this
    simpa using this
  · have := List.any_eq_false.1 a2.2 c hc
    unfold badT at this
    simpa using this

/-- within the loop: the first k rules are kept -/
def OfL (w wr : World) (g b : Nat) (rs : List Ru) (k : Nat) : Prop := ∃ L, Mf wr w.heap.size wr.heap.size g b L ∧ L.map puR = (rs.take k).map puR ∧ g ≠ b
theorem OfL.start {w W : World} (hB : Below w.heap.size w W) (rs : List Ru) : OfL w ((W.alloc (.map #[] 0)).alloc (.cells #[.map (some W.heap.size)] 55)) (W.heap.size + 1) W.heap.size rs 0 := by
  refine ⟨[], ⟨fresh2 _ _ _, ⟨0, Nat.le_refl _, ?_⟩, fun r hr => by simp at hr, fun r hr => by simp at hr, ?_, ?_, Nat.le_refl _⟩, rfl, by omega⟩
  · exact (World.ownsMap_made W Try.prog 26 hd).alloc _
  · have := hB.size
    rw [size_al, size_al]
    omega
  · have := hB.size
    rw [size_al, size_al]
    omega
theorem OfL.step {w wr W : World} {g b : Nat} {rs : List Ru} {k : Nat} (h : OfL w wr g b rs k) (hk : k < rs.length) (h64 : rs.length ≤ 64) (hz : RuZ rs) (hB : Below w.heap.size w wr) (hb : Below wr.heap.size wr W) (y : SV) (hR : R ET W (sv y) rs[k].l) (hy : ∀ i, (sv y).ownBlock = some i → wr.heap.size ≤ i) :
    ∃ W', (Instr.mapUpdate 53 (.map (some b)) (.agg (tgv rs[k].t)) (sv y)).run Try.prog W = .ok () W' ∧ OfL w W' g b rs (k + 1) ∧ Below w.heap.size w W' ∧ Ks (fun k => k = b) W W' := by
  obtain ⟨L, hM, hL, hgb⟩ := h
  have hlen : L.length = k := by have := congrArg List.length hL; simp at this; omega
  have hM2 := (hM.below hb).wide hb.size (Nat.le_refl _)
  have hlb := hM.lb
  have hlg := hM.lg
  have hs := hB.size
  obtain ⟨W', hrun, hM3, hks⟩ := hM2.put (by omega) ⟨rs[k].t, y, rs[k].l⟩ (hz rs[k] (List.getElem_mem hk)) hR (fun i hi => ⟨by have := hy i hi; omega, hR.lt i hi⟩) (fun i hi => by have := hy i hi; omega) hgb
  refine ⟨W', hrun, ⟨L ++ [⟨rs[k].t, y, rs[k].l⟩], hM3.wide hks.size (Nat.le_refl _), ?_, hgb⟩, ?_, hks⟩
  · rw [List.map_append, hL, List.take_succ_eq_append_getElem hk, List.map_append]
    rfl
  · exact (hB.trans (hb.mono hs)).trans (hks.below (Nat.le_trans hs hb.size) fun i hi e => by omega)
theorem OfL.done {w wr : World} {g b : Nat} {rs : List Ru} (h : OfL w wr g b rs rs.length) :
    ∃ n : Nat, (Builtin.len_ #[53] 3 #[.map (some b)]).run Try.prog wr = .ok (.int .i64 (n : Int)) wr ∧ ((n < rs.length ∧ ndB (rs.map Ru.t) = false) ∨ (n = rs.length ∧ ndB (rs.map Ru.t) = true ∧ Mn w wr g (rs.map puR))) := by
  obtain ⟨L, hM, hL, hgb⟩ := h
  rw [List.take_length] at hL
  have ht : L.map Ru.t = rs.map Ru.t := by
    have := congrArg (List.map Prod.fst) hL
    simpa [puR, Function.comp_def] using this
  have hlen : L.length = rs.length := by have := congrArg List.length hL; simpa using this
  obtain ⟨s1, s2⟩ := mT_size hM.z
  refine ⟨size (mT L), hM.len, ?_⟩
  rw [hlen, ht, ← ndB_iff] at s2
  rw [hlen] at s1
  by_cases e : size (mT L) = rs.length
  · exact .inr ⟨e, s2.1 e, b, L, hM, by rw [ht]; exact ndB_iff.1 (s2.1 e), hL, hgb⟩
  · refine .inl ⟨by omega, Bool.eq_false_iff.2 fun h => e (s2.2 h)⟩

set_option maxHeartbeats 8000000 in
set_option maxRecDepth 100000 in
theorem of_any (x : SV) (rs : List Ru) (w : World) (hI : In ER w (sv x) rs) (hC : PsIn w rs) : Calls Try.prog 8 #[sv x] w fun e w' => OfPost rs w e w' := by
  have HI : Hid (In ER w (sv x) rs) := hI
  have HC : Hid (PsIn w rs) := hC
  have X1 : Hid (∀ W, Below w.heap.size w W → Calls Try.prog 21 #[sv x, .func (.func 22) #[] #[]] W fun e w' => e = .returned (.bool (rs.any longB)) ∧ Below W.heap.size W w') := fun W hW => anyLong x rs W (hI.below hW) (hC.below hW)
  have X2 : Hid (∀ W, Below w.heap.size w W → Calls Try.prog 21 #[sv x, .func (.func 23) #[] #[]] W fun e w' => e = .returned (.bool (rs.any wrongB)) ∧ Below W.heap.size W w') := fun W hW => anyWrong x rs W (hI.below hW) (hC.below hW)
  have X3 : Hid (∀ W, Below w.heap.size w W → Calls Try.prog 21 #[sv x, .func (.func 24) #[] #[]] W fun e w' => e = .returned (.bool (rs.any twiceB)) ∧ Below W.heap.size W w') := fun W hW => anyTwice x rs W (hI.below hW) (hC.below hW)
  obtain ⟨b, c, e, m1, m2⟩ := hI.slice
  obtain ⟨sb, sl, sc⟩ := x
  simp only [sv] at e HI X1 X2 X3 ⊢
  injection e with e1 e2 e3
  subst e1 e2 e3
  clear hI hC
  by_cases h64 : 64 < rs.length
  · have hE : Hid (ofE rs = 3) := by show _ = _; unfold ofE; rw [if_pos h64]
    have l0 : (64 : Int) < (rs.length : Int) := by omega
    clear h64
    go_enter Try.func8, Try.ntmps8
    go_wp2_with fail
    go_ret2
    exact ⟨Below.refl _ _, .inl ⟨by rw [hE.out]; decide, by rw [hE.out]; rfl⟩⟩
  have l0 : ¬ (64 : Int) < (rs.length : Int) := by omega
  have H64 : Hid (rs.length ≤ 64) := Nat.not_lt.1 h64
  cases h1 : rs.any longB
  case true =>
    have hE : Hid (ofE rs = 3) := by show _ = _; unfold ofE; rw [if_neg h64, if_pos h1]
    rw [h1] at X1
    clear h64 h1 X2 X3
    go_enter Try.func8, Try.ntmps8
    go_wp2_with fail
    go_at_call 21
    refine (X1.out _ (Below.refl _ _)).mono ?_
    rintro e w1 ⟨rfl, hb1⟩
    go_wp2_with fail
    go_ret2
    exact ⟨hb1, .inl ⟨by rw [hE.out]; decide, by rw [hE.out]; rfl⟩⟩
  rw [h1] at X1
  cases h2 : rs.any wrongB
  case true =>
    have hE : Hid (ofE rs = 180) := by show _ = _; unfold ofE; rw [if_neg h64, if_neg (by rw [h1]; simp), if_pos h2]
    rw [h2] at X2
    clear h64 h1 h2 X3
    go_enter Try.func8, Try.ntmps8
    go_wp2_with fail
    go_at_call 21
    refine (X1.out _ (Below.refl _ _)).mono ?_
    rintro e w1 ⟨rfl, hb1⟩
    have HB1 : Hid (Below w.heap.size w w1) := hb1
    clear hb1 X1
    go_wp2_with fail
    go_at_call 21
    refine (X2.out _ HB1.out).mono ?_
    rintro e w2 ⟨rfl, hb2⟩
    have HB2 : Hid (Below w.heap.size w w2) := HB1.out.trans (hb2.mono HB1.out.size)
    clear hb2
    go_wp2_with fail
    go_ret2
    exact ⟨HB2.out, .inl ⟨by rw [hE.out]; decide, by rw [hE.out]; rfl⟩⟩
  rw [h2] at X2
  have HZ : Hid (RuZ rs) := good_rules h1 h2
  cases h3 : rs.any twiceB
  case true =>
    have hE : Hid (ofE rs = 7) := by show _ = _; unfold ofE; rw [if_neg h64, if_neg (by rw [h1]; simp), if_neg (by rw [h2]; simp), if_pos h3]
    rw [h3] at X3
    clear h64 h1 h2 h3
    go_enter Try.func8, Try.ntmps8
    go_wp2_with fail
    go_at_call 21
    refine (X1.out _ (Below.refl _ _)).mono ?_
    rintro e w1 ⟨rfl, hb1⟩
    have HB1 : Hid (Below w.heap.size w w1) := hb1
    clear hb1 X1
    go_wp2_with fail
    go_at_call 21
    refine (X2.out _ HB1.out).mono ?_
    rintro e w2 ⟨rfl, hb2⟩
    have HB2 : Hid (Below w.heap.size w w2) := HB1.out.trans (hb2.mono HB1.out.size)
    clear hb2 X2
    go_wp2_with fail
    go_at_call 21
    refine (X3.out _ HB2.out).mono ?_
    rintro e w3 ⟨rfl, hb3⟩
    have HB3 : Hid (Below w.heap.size w w3) := HB2.out.trans (hb3.mono HB2.out.size)
    clear hb3 X3
    go_wp2_with fail
    go_ret2
    exact ⟨HB3.out, .inl ⟨by rw [hE.out]; decide, by rw [hE.out]; rfl⟩⟩
  rw [h3] at X3
  have hE : Hid (ofE rs = if ndB (rs.map Ru.t) = true then 0 else 7) := by show _ = _; unfold ofE; rw [if_neg h64, if_neg (by rw [h1]; simp), if_neg (by rw [h2]; simp), if_neg (by rw [h3]; simp)]
  clear h64 h1 h2 h3
  go_enter Try.func8, Try.ntmps8
  go_wp2_with fail
  go_at_call 21
  refine (X1.out _ (Below.refl _ _)).mono ?_
  rintro e w1 ⟨rfl, hb1⟩
  have HB1 : Hid (Below w.heap.size w w1) := hb1
  clear hb1 X1
  go_wp2_with fail
  go_at_call 21
  refine (X2.out _ HB1.out).mono ?_
  rintro e w2 ⟨rfl, hb2⟩
  have HB2 : Hid (Below w.heap.size w w2) := HB1.out.trans (hb2.mono HB1.out.size)
  clear hb2 X2
  go_wp2_with fail
  go_at_call 21
  refine (X3.out _ HB2.out).mono ?_
  rintro e w3 ⟨rfl, hb3⟩
  have HB3 : Hid (Below w.heap.size w w3) := HB2.out.trans (hb3.mono HB2.out.size)
  clear hb3 X3 HB1 HB2
  have hmm := @run_makeMap Try.prog
  have HO : Hid (OfL w ((w3.alloc (.map #[] 0)).alloc (.cells #[.map (some w3.heap.size)] 55)) (w3.heap.size + 1) w3.heap.size rs 0) := OfL.start HB3.out rs
  have HB4 : Hid (Below w.heap.size w ((w3.alloc (.map #[] 0)).alloc (.cells #[.map (some w3.heap.size)] 55))) := HB3.out.trans ((bel2 _ _ _).mono HB3.out.size)
  clear HB3
  go_wp2_with fail
  obtain ⟨b, hb⟩ : ∃ b, b = w3.heap.size := ⟨_, rfl⟩
  obtain ⟨g, hg⟩ : ∃ g, g = w3.heap.size + 1 := ⟨_, rfl⟩
  obtain ⟨W, hW⟩ : ∃ W, W = (w3.alloc (.map #[] 0)).alloc (.cells #[.map (some w3.heap.size)] 55) := ⟨_, rfl⟩
  rw [← hW] at HO HB4 ⊢
  try rw [size_al]
  rw [← hg] at HO ⊢
  rw [← hb] at HO
  clear hb hg hW
  go_loopw [6, 24] (fun _ kv wr => ∃ k : Nat, kv = .int .i64 (k : Int) ∧ k ≤ rs.length ∧ Hid (OfL w wr g b rs k) ∧ Hid (Below w.heap.size w wr)) (fun _ kv _ => rs.length - (intOf kv).toNat)
  case atStart => exact ⟨0, rfl, by omega, HO.out, HB4.out⟩
  case round =>
    obtain ⟨k, rfl, hk, hO, hB⟩ := hrel
    have hcg : wr.heap[g]? = some (.cells #[.map (some b)] 55 (0, 0)) := hO.out.choose_spec.1.hg
    by_cases hlt : k < rs.length
    · obtain ⟨Bk, off, cap, e, hBk, hc⟩ := HI.out.ru k hlt
      injection e with e1 e2 e3
      clear e2 e3
      subst e1
      obtain ⟨c0, c1, c2⟩ := hc wr hB.out
      obtain ⟨r, hr⟩ : ∃ r, rs[k] = r := ⟨_, rfl⟩
      rw [hr] at c0 c1 c2
      have Hr : Hid (rs[k]'hlt = r) := hr
      have HRZ : Hid (tz r.t ∧ r.l.length ≤ 8 ∧ ∀ c ∈ r.l, tz c) := by rw [← hr]; exact HZ.out _ (List.getElem_mem hlt)
      have HRI : Hid (In ET w (sv r.y) r.l) := by rw [← hr]; exact HC.out _ (List.getElem_mem hlt)
      clear hc hr
      obtain ⟨⟨ya, yp⟩, ⟨yb, yl, yc⟩, l⟩ := r
      simp only [sv] at c0 c1 c2 HRZ HRI
      have hlt' : (k : Int) < (rs.length : Int) := by omega
      have hbA : Hid (Below wr.heap.size wr (wr.alloc (.cells #[.string ya, .string yp, .slice yb yl yc] 29))) := bel1 _ _
      go_wp2_with fail
      obtain ⟨q, hq⟩ : ∃ q, q = wr.heap.size := ⟨_, rfl⟩
      have Hq : Hid (q = wr.heap.size) := hq
      obtain ⟨W0, hW0⟩ : ∃ W0, W0 = wr.alloc (.cells #[.string ya, .string yp, .slice yb yl yc] 29) := ⟨_, rfl⟩
      have hF0 : W0.heap[q]? = some (.cells #[.string ya, .string yp, .slice yb yl yc] 29 (0, 0)) := by rw [hW0, hq, heap_al, if_pos rfl]
      have hF1 : W0.heap[g]? = some (.cells #[.map (some b)] 55 (0, 0)) := by rw [hW0]; exact ((bel1 _ _).block _ (heap_lt hcg)).trans hcg
      have hCell : Hid (∀ V, Below W0.heap.size W0 V → V.cell? ⟨q, 0, none⟩ = some (.string ya) ∧ V.cell? ⟨q, 1, none⟩ = some (.string yp) ∧ V.cell? ⟨q, 2, none⟩ = some (.slice yb yl yc) ∧ V.cell? ⟨g, 0, none⟩ = some (.map (some b))) := fun V hV => ⟨cell_blk ((hV.block _ (heap_lt hF0)).trans hF0) 0, cell_blk ((hV.block _ (heap_lt hF0)).trans hF0) 1, cell_blk ((hV.block _ (heap_lt hF0)).trans hF0) 2, cell_blk ((hV.block _ (heap_lt hF1)).trans hF1) 0⟩
      rw [← hW0] at hbA ⊢
      rw [← hq]
      have HF0 : Hid (W0.heap[q]? = some (.cells #[.string ya, .string yp, .slice yb yl yc] 29 (0, 0))) := hF0
      clear hW0 hq hF0 hF1 hcg c0 c1 c2
      have hIW : Below W0.heap.size W0 W0.drew := (Below.refl _ _).drew
      refine wp_region_held_drew (S := (fun V => V.cell? ⟨q, 0, none⟩ = some (.string ya) ∧ V.cell? ⟨q, 1, none⟩ = some (.string yp) ∧ V.cell? ⟨q, 2, none⟩ = some (.slice yb yl yc) ∧ V.cell? ⟨g, 0, none⟩ = some (.map (some b)))) (by kernel_rfl) (hCell.out _ hIW) (fun hHeld => ?_)
      generalize hWg : World.drew _ = W at hIW hHeld ⊢
      clear hWg
      refine wpAnyH_take (i := 0) (oi := { dst := some 28, op := Op.move (Operand.tmp 4), type := 30, pos := "manifest.go:31", after := #[], guard := none }) (v := ?vv1) rfl (by kernel_rfl) (by kernel_rfl) (by kernel_rfl) (fun _ _ _ h => h) (Or.inl ⟨by rfl, ?hy1⟩) (by assumption) ?_
      case hy1 => (intro w hSw; (try dsimp only at hSw); go_simp; all_goals with_reducible rfl)
      try simp only [Act.put, List.setIfInBounds_toArray, List.set_cons_zero, List.set_cons_succ]
      refine wpAnyH_take (i := 1) (oi := { dst := some 29, op := Op.nilCheck (Operand.tmp 28), type := 0, pos := "manifest.go:31", after := #[{ on := 0, ground := Ground.data }], guard := none }) (v := ?vv2) rfl (by kernel_rfl) (by kernel_rfl) (by kernel_rfl) (fun _ _ _ h => h) (Or.inl ⟨by rfl, ?hy2⟩) (by assumption) ?_
      case hy2 => (intro w hSw; (try dsimp only at hSw); go_simp; all_goals with_reducible rfl)
      try simp only [Act.put, List.setIfInBounds_toArray, List.set_cons_zero, List.set_cons_succ]
      refine wpAnyH_take (i := 2) (oi := { dst := some 30, op := Op.fieldAddr 55 (Operand.tmp 29) 0, type := 0, pos := "manifest.go:31", after := #[{ on := 1, ground := Ground.data }], guard := none }) (v := ?vv3) rfl (by kernel_rfl) (by kernel_rfl) (by kernel_rfl) (fun _ _ _ h => h) (Or.inl ⟨by rfl, ?hy3⟩) (by assumption) ?_
      case hy3 => (intro w hSw; (try dsimp only at hSw); go_simp; all_goals with_reducible rfl)
      try simp only [Act.put, List.setIfInBounds_toArray, List.set_cons_zero, List.set_cons_succ]
      refine wpAnyH_take (i := 3) (oi := { dst := some 31, op := Op.load 53 (Operand.tmp 30), type := 53, pos := "manifest.go:31", after := #[{ on := 2, ground := Ground.data }], guard := none }) (v := ?vv4) rfl (by kernel_rfl) (by kernel_rfl) (by kernel_rfl) (fun _ _ _ h => h) (Or.inl ⟨by rfl, ?hy4⟩) (by assumption) ?_
      case hy4 => (intro w hSw; (try dsimp only at hSw); go_simp; all_goals with_reducible rfl)
      try simp only [Act.put, List.setIfInBounds_toArray, List.set_cons_zero, List.set_cons_succ]
      refine wpAnyH_take (i := 4) (oi := { dst := some 32, op := Op.fieldAddr 29 (Operand.tmp 6) 0, type := 0, pos := "manifest.go:31", after := #[], guard := none }) (v := ?vv5) rfl (by kernel_rfl) (by kernel_rfl) (by kernel_rfl) (fun _ _ _ h => h) (Or.inl ⟨by rfl, ?hy5⟩) (by assumption) ?_
      case hy5 => (intro w hSw; (try dsimp only at hSw); go_simp; all_goals with_reducible rfl)
      try simp only [Act.put, List.setIfInBounds_toArray, List.set_cons_zero, List.set_cons_succ]
      refine wpAnyH_take (i := 5) (oi := { dst := some 33, op := Op.load 26 (Operand.tmp 32), type := 26, pos := "manifest.go:31", after := #[{ on := 4, ground := Ground.data }], guard := none }) (v := ?vv6) rfl (by kernel_rfl) (by kernel_rfl) (by kernel_rfl) (fun _ _ _ h => h) (Or.inl ⟨by rfl, ?hy6⟩) (by assumption) ?_
      case hy6 => (intro w hSw; (try dsimp only at hSw); go_simp; all_goals with_reducible rfl)
      try simp only [Act.put, List.setIfInBounds_toArray, List.set_cons_zero, List.set_cons_succ]
      refine wpAnyH_take (i := 7) (oi := { dst := some 35, op := Op.fieldAddr 29 (Operand.tmp 6) 1, type := 0, pos := "manifest.go:31", after := #[], guard := none }) (v := ?vv7) rfl (by kernel_rfl) (by kernel_rfl) (by kernel_rfl) (fun _ _ _ h => h) (Or.inl ⟨by rfl, ?hy7⟩) (by assumption) ?_
      case hy7 => (intro w hSw; (try dsimp only at hSw); go_simp; all_goals with_reducible rfl)
      try simp only [Act.put, List.setIfInBounds_toArray, List.set_cons_zero, List.set_cons_succ]
      refine wpAnyH_take (i := 8) (oi := { dst := some 36, op := Op.load 27 (Operand.tmp 35), type := 27, pos := "manifest.go:31", after := #[{ on := 7, ground := Ground.data }], guard := none }) (v := ?vv8) rfl (by kernel_rfl) (by kernel_rfl) (by kernel_rfl) (fun _ _ _ h => h) (Or.inl ⟨by rfl, ?hy8⟩) (by assumption) ?_
      case hy8 => (intro w hSw; (try dsimp only at hSw); go_simp; all_goals with_reducible rfl)
      try simp only [Act.put, List.setIfInBounds_toArray, List.set_cons_zero, List.set_cons_succ]
      refine wpAnyH_ready (rs := [6]) (by kernel_rfl) (by simp) ?_
      refine AllReadyH.cons (o := { dst := some 34, op := Op.call { callee := Callee.value (Operand.func 26), args := #[Operand.tmp 33], argTypes := #[26] }, type := 26, pos := "manifest.go:31", after := #[{ on := 5, ground := Ground.data }], guard := none }) rfl (fun K hK => ?_) AllReadyH.nil
      go_simp
      refine (copied_any (ya, yp) _ HRZ.out.1).mono ?_
      rintro e' Wx ⟨rfl, bX⟩
      have hWx : Below W0.heap.size W0 Wx := hIW.trans (bX.mono hIW.size)
      clear bX
      go_wp2_with fail
      refine hK.out _ _ (hCell.out _ hWx) (fun hHeld => ?_)
      clear hK K
      try simp only [Act.put, List.setIfInBounds_toArray, List.set_cons_zero, List.set_cons_succ]
      refine wpAnyH_ready (rs := [9]) (by kernel_rfl) (by simp) ?_
      refine AllReadyH.cons (o := { dst := some 37, op := Op.call { callee := Callee.value (Operand.func 25), args := #[Operand.tmp 36], argTypes := #[27] }, type := 27, pos := "manifest.go:31", after := #[{ on := 8, ground := Ground.data }, { on := 6, ground := Ground.chain }], guard := none }) rfl (fun K hK => ?_) AllReadyH.nil
      have hIn : In ET Wx (sv (yb, yl, yc)) l := (HRI.out.below hB.out).below (hbA.out.trans (hWx.mono hbA.out.size))
      have hCA : Hid (Calls Try.prog 25 #[sv (yb, yl, yc)] Wx fun e w' => CpPost l Wx e w') := copiedAll_any (yb, yl, yc) l Wx hIn HRZ.out.2.1 HRZ.out.2.2
      clear hIn
      simp only [sv] at hCA
      go_simp
      refine hCA.out.mono ?_
      rintro e' Wxx ⟨y, rfl, bX, hRY, hyB⟩
      have hWxx : Below W0.heap.size W0 Wxx := hWx.trans (bX.mono hWx.size)
      have HRY : Hid (R ET Wxx (sv y) l) := hRY
      have HYB : Hid (∀ i, (sv y).ownBlock = some i → wr.heap.size ≤ i) := fun i hi => by have := hyB i hi; have := hWx.size; have := hbA.out.size; omega
      clear bX hRY hyB hCA
      obtain ⟨zb, zl, zc⟩ := y
      simp only [sv] at HRY HYB ⊢
      go_wp2_with fail
      refine hK.out _ _ (hCell.out _ hWxx) (fun hHeld => ?_)
      clear hK K
      try simp only [Act.put, List.setIfInBounds_toArray, List.set_cons_zero, List.set_cons_succ]
      refine wpAnyH_ready (rs := [10]) (by kernel_rfl) (by simp) ?_
      refine AllReadyH.cons (o := { dst := none, op := Op.mapUpdate 53 (Operand.tmp 31) (Operand.tmp 34) (Operand.tmp 37), type := 0, pos := "manifest.go:31", after := #[{ on := 3, ground := Ground.data }, { on := 6, ground := Ground.data }, { on := 9, ground := Ground.data }, { on := 9, ground := Ground.chain }, { on := 0, ground := Ground.phase }, { on := 1, ground := Ground.phase }, { on := 2, ground := Ground.phase }, { on := 3, ground := Ground.phase }, { on := 4, ground := Ground.phase }, { on := 5, ground := Ground.phase }, { on := 6, ground := Ground.phase }, { on := 7, ground := Ground.phase }, { on := 8, ground := Ground.phase }, { on := 9, ground := Ground.phase }], guard := none }) rfl (fun K hK => ?_) AllReadyH.nil
      obtain ⟨W9, hrun, hO9, hB9, hK9⟩ := hO.out.step hlt H64.out HZ.out hB.out (hbA.out.trans (hWxx.mono hbA.out.size)) (zb, zl, zc) (by rw [Hr.out]; exact HRY.out) HYB.out
      rw [Hr.out] at hrun
      have HO9 : Hid (OfL w W9 g b rs (k + 1)) := hO9
      have HB9 : Hid (Below w.heap.size w W9) := hB9
      have HSn : Hid ((fun V => V.cell? ⟨q, 0, none⟩ = some (.string ya) ∧ V.cell? ⟨q, 1, none⟩ = some (.string yp) ∧ V.cell? ⟨q, 2, none⟩ = some (.slice yb yl yc) ∧ V.cell? ⟨g, 0, none⟩ = some (.map (some b))) W9) := by
        have hq := hCell.out _ hWxx
        have hO1 := hO.out.choose_spec.1
        have hgb : g ≠ b := hO.out.choose_spec.2.2
        have hqb : q ≠ b := fun e => by
          have := hO1.lb.2
          have := Hq.out
          omega
        have hV1 : W9.heap[q]? = Wxx.heap[q]? := hK9.block q (Nat.lt_of_lt_of_le (heap_lt HF0.out) hWxx.size) hqb
        have hV2 : W9.heap[g]? = Wxx.heap[g]? := hK9.block g (World.block_lt_of_cell? _ _ hq.2.2.2) hgb
        refine ⟨?_, ?_, ?_, ?_⟩
        · have := hq.1; unfold World.cell? at this ⊢; rw [hV1]; exact this
        · have := hq.2.1; unfold World.cell? at this ⊢; rw [hV1]; exact this
        · have := hq.2.2.1; unfold World.cell? at this ⊢; rw [hV1]; exact this
        · have := hq.2.2.2; unfold World.cell? at this ⊢; rw [hV2]; exact this
      clear hO9 hB9 hK9
      simp only [sv] at hrun
      go_simp
      go_wp2_with fail
      refine hK.out _ _ HSn.out (fun hHeld => ?_)
      clear hK K hrun
      try simp only [Act.put, List.setIfInBounds_toArray, List.set_cons_zero, List.set_cons_succ]
      refine wpAnyH_done (by kernel_rfl) ?_ _
      go_wp2_with fail
      go_roundw
      case rel =>
        exact ⟨k + 1, by simp, by omega, HO9.out, HB9.out⟩
      case measure => simp [intOf]; omega
    · obtain rfl : k = rs.length := by omega
      have hlt' : ¬ (rs.length : Int) < (rs.length : Int) := by omega
      obtain ⟨n, hn, hcase⟩ := hO.out.done
      have c0 := cell_blk hcg 0
      rcases hcase with ⟨h1, h2⟩ | ⟨h1, h2, h3⟩
      · have l1 : (n : Int) < (rs.length : Int) := by omega
        have H2 : Hid (ofE rs = 7) := by show _ = _; rw [hE.out, h2]; rfl
        clear h1 h2 hcg
        go_wp2_with fail
        go_ret2
        exact ⟨hB.out, .inl ⟨by rw [H2.out]; decide, by rw [H2.out]; rfl⟩⟩
      · have l1 : ¬ (n : Int) < (rs.length : Int) := by omega
        have H2 : Hid (ofE rs = 0) := by show _ = _; rw [hE.out, h2]; rfl
        have H3 : Hid (Mn w wr g (rs.map puR)) := h3
        clear h1 h2 h3 hcg
        go_wp2_with fail
        go_ret2
        exact ⟨hB.out, .inr ⟨H2.out, g, rfl, H3.out⟩⟩
end Go.Proofs.Ytldnibkgdpeocaa
