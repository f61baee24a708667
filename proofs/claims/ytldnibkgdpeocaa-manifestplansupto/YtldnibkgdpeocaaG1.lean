/- lent: rules with marks behind. -/
import Derived.Test.YtldnibkgdpeocaaF3
namespace Go.Proofs.Ytldnibkgdpeocaa
open Go.RowKit Go.Maps
open Go.Shelf
set_option linter.unusedVariables false
set_option linter.unusedSimpArgs false

theorem own_len (b : Option Addr) (n m c d : Nat) : (Value.slice b n c).ownBlock = (Value.slice b m d).ownBlock := by cases b <;> rfl
def markS : ByteArray := ⟨#[109, 97, 114, 107]⟩
def mkT : Tg := (markS, ⟨#[]⟩)
def mkU : Ru := ⟨mkT, (none, 0, 0), []⟩
/-- a lent rule's list, the mark behind it -/
def LT (lo : Nat) (W : World) (r : Ru) : Prop := R ET W (.slice r.y.1 (r.l.length + 1) r.y.2.2) (r.l ++ [mkT]) ∧ r.y.2.1 = r.l.length ∧ ∀ k, (sv r.y).ownBlock = some k → lo ≤ k
theorem LT.stays {lo : Nat} {W W' : World} {r : Ru} (h : LT lo W r) (hk : ∀ k, (sv r.y).ownBlock = some k → k < W.heap.size → W'.heap[k]? = W.heap[k]?) : LT lo W' r := ⟨h.1.stays fun k hk' hl => hk k (by rw [← hk']; exact own_len _ _ _ _ _) hl, h.2⟩
theorem LT.isIn {lo : Nat} {W : World} {r : Ru} (h : LT lo W r) : In ET W (sv r.y) r.l := by
  have h1 := h.1.isIn.take okT r.l.length (by simp)
  rw [List.take_left'] at h1
  · obtain ⟨t, ⟨b, n, c⟩, l⟩ := r
    have := h.2.1
    simp only at this
    subst this
    exact h1
  · rfl
/-- rules that are being lent since w -/
structure Lm (w wr : World) (v : SV) (ps : List Pu) : Prop where
  ok : ∃ rs : List Ru, R ER wr (sv v) rs ∧ (∀ r ∈ rs, LT w.heap.size wr r) ∧ rs.map puR = ps
  bel : Below w.heap.size w wr
  new : ∀ k, (sv v).ownBlock = some k → w.heap.size ≤ k
theorem Lm.start (w : World) : Lm w w (none, 0, 0) [] := ⟨⟨[], R.nil _ _, fun r hr => by simp at hr, rfl⟩, Below.refl _ _, fun k hk => by simp [sv, Value.ownBlock] at hk⟩
theorem Lm.below {w wr W : World} {v : SV} {ps : List Pu} (h : Lm w wr v ps) (hb : Below wr.heap.size wr W) : Lm w W v ps := by
  obtain ⟨⟨rs, h1, h2, h3⟩, h4, h5⟩ := h
  exact ⟨⟨rs, h1.below hb, fun r hr => (h2 r hr).stays fun k _ hk => hb.block k hk, h3⟩, h4.trans (hb.mono h4.size), h5⟩
theorem Lm.slice {w wr : World} {v : SV} {ps : List Pu} (h : Lm w wr v ps) : v.2.1 = ps.length := by
  obtain ⟨⟨rs, h1, h2, h3⟩, _⟩ := h
  obtain ⟨b, c, e, _⟩ := h1.slice
  obtain ⟨vb, vl, vc⟩ := v
  simp only [sv] at e
  injection e with e1 e2 e3
  rw [← h3, List.length_map]
  exact e2
theorem LT.other {lo : Nat} {W W' : World} {r : Ru} {v v' : Value} {rs : List Ru} (h : LT lo W r) (hv : R ER W v rs) (hG : Gr W W' v v') : LT lo W' r := h.stays fun i hi hl => hG.block i hl fun e => by
  obtain ⟨c, hc⟩ := h.1.ty i (by rw [← hi]; exact own_len _ _ _ _ _)
  obtain ⟨d, hd⟩ := hv.ty i e
  rw [hc] at hd
  injection hd with hd
  injection hd with _ hd
  simp [ET, ER] at hd
theorem Lm.grow {w wr : World} {v : SV} {ps : List Pu} (h : Lm w wr v ps) (r : Ru) (hR : LT w.heap.size wr r) (x : Value) (hx : In ER wr x [r]) (hz : (ps.length + 1) * 56 ≤ 140737488355328) :
    ∃ b c W, (Builtin.append_ #[23, 23] 23 #[sv v, x]).run Try.prog wr = .ok (.slice b (ps.length + 1) c) W ∧ Lm w W (b, ps.length + 1, c) (ps ++ [puR r]) := by
  obtain ⟨⟨rs, h1, h2, h3⟩, h4, h5⟩ := h
  have hlen : rs.length = ps.length := by rw [← h3, List.length_map]
  obtain ⟨b, c, W, hrun, hR2, hG⟩ := app okR wr (sv v) rs h1 x [r] hx (by rw [hlen]; exact hz)
  rw [hlen] at hrun hR2 hG
  simp only [List.length_singleton] at hrun hR2 hG
  refine ⟨b, c, W, hrun, ⟨rs ++ [r], hR2, fun r' hr => ?_, by rw [List.map_append, h3]; rfl⟩, ?_, fun k hk => ?_⟩
  · rcases List.mem_append.1 hr with hr | hr
    · exact (h2 r' hr).other h1 hG
    · rw [List.mem_singleton.1 hr]
      exact hR.other h1 hG
  · exact h4.trans (hG.belowB h4.size h5)
  · rcases hG.own k hk with h | h
    · exact h5 k h
    · have := h4.size; omega
/-- lent rules: what is handed, and the mark behind -/
structure Ln (w W : World) (y : SV) (ls : List Ru) : Prop where
  row : R ER W (.slice y.1 (ls.length + 1) y.2.2) (ls ++ [mkU])
  len : y.2.1 = ls.length
  each : ∀ r ∈ ls, LT w.heap.size W r
  new : ∀ k, (sv y).ownBlock = some k → w.heap.size ≤ k
theorem Ln.isIn {w W : World} {y : SV} {ls : List Ru} (h : Ln w W y ls) : In ER W (sv y) ls ∧ PsIn W ls := by
  refine ⟨?_, fun r hr => (h.each r hr).isIn⟩
  have h1 := h.row.isIn.take okR ls.length (by simp)
  rw [List.take_left'] at h1
  · obtain ⟨b, n, c⟩ := y
    have := h.len
    simp only at this
    subst this
    exact h1
  · rfl
theorem Ln.below {w W W' : World} {y : SV} {ls : List Ru} (h : Ln w W y ls) (hb : Below W.heap.size W W') : Ln w W' y ls := ⟨h.row.below hb, h.len, fun r hr => (h.each r hr).stays fun k _ hk => hb.block k hk, h.new⟩
def LePost (ps : List Pu) (w : World) (e : Ending) (w' : World) : Prop := ∃ (y : SV) (ls : List Ru), e = .returned (sv y) ∧ Ln w w' y ls ∧ ls.map puR = ps ∧ Below w.heap.size w w'

set_option maxHeartbeats 16000000 in
set_option maxRecDepth 100000 in
theorem lent_any (x : SV) (l : List Ru) (w : World) (hI : In ER w (sv x) l) (hC : PsIn w l) (hz : l.length ≤ 1048576) (hz2 : ∀ r ∈ l, r.l.length ≤ 1048576) :
    Calls Try.prog 16 #[sv x] w fun e w' => LePost (l.map puR) w e w' := by
  have HI : Hid (In ER w (sv x) l) := hI
  have HC : Hid (PsIn w l) := hC
  have HZ : Hid (l.length ≤ 1048576) := hz
  have HZ2 : Hid (∀ r ∈ l, r.l.length ≤ 1048576) := hz2
  obtain ⟨b, c, e, m1, m2⟩ := hI.slice
  obtain ⟨sb, sl, sc⟩ := x
  simp only [sv] at e HI ⊢
  injection e with e1 e2 e3
  subst e1 e2 e3
  clear hI hC hz hz2
  obtain ⟨W0, hW0⟩ : ∃ W0, W0 = w.alloc (.cells #[.string ⟨#[109, 97, 114, 107]⟩, .string ⟨#[]⟩] 26) := ⟨_, rfl⟩
  obtain ⟨q, hq⟩ : ∃ q, q = w.heap.size := ⟨_, rfl⟩
  have HB0 : Hid (Below w.heap.size w W0) := by rw [hW0]; exact bel1 _ _
  have HQ0 : Hid (W0.heap[q]? = some (.cells #[.string ⟨#[109, 97, 114, 107]⟩, .string ⟨#[]⟩] 26 (0, 0))) := by show _ = _; rw [hW0, hq, heap_al, if_pos rfl]
  go_enter Try.func16, Try.ntmps16
  go_upto_region 2 with fail
  rw [← hW0, ← hq]
  clear hW0 hq
  go_wp2_with fail
  go_loopw [4, 5, 6] (fun tv kv _ wr => ∃ (k : Nat) (v : SV), kv = .int .i64 (k : Int) ∧ k ≤ l.length ∧ tv = sv v ∧ Hid (Lm W0 wr v ((l.take k).map puR))) (fun _ kv _ _ => l.length - (intOf kv).toNat)
  case atStart => exact ⟨0, (none, 0, 0), rfl, by omega, rfl, Lm.start W0⟩
  case round =>
    obtain ⟨k, ⟨vb, vl, vc⟩, rfl, hk, rfl, hO⟩ := hrel
    have HBw : Hid (∀ V, Below W0.heap.size W0 V → Below w.heap.size w V) := fun V hV => HB0.out.trans (hV.mono HB0.out.size)
    have HQC : Hid (∀ V, Below W0.heap.size W0 V → V.cell? ⟨q, 0, none⟩ = some (.string ⟨#[109, 97, 114, 107]⟩) ∧ V.cell? ⟨q, 1, none⟩ = some (.string ⟨#[]⟩)) := fun V hV => ⟨cell_blk ((hV.block _ (heap_lt HQ0.out)).trans HQ0.out) 0, cell_blk ((hV.block _ (heap_lt HQ0.out)).trans HQ0.out) 1⟩
    by_cases hlt : k < l.length
    · obtain ⟨Bk, off, cap, e, hBk, hc⟩ := HI.out.ru k hlt
      injection e with e1 e2 e3
      clear e2 e3
      subst e1
      obtain ⟨r, hr⟩ : ∃ r, l[k] = r := ⟨_, rfl⟩
      rw [hr] at hc
      have HTK : Hid ((l.take (k + 1)).map puR = (l.take k).map puR ++ [puR r]) := by show _ = _; rw [List.take_succ_eq_append_getElem hlt, List.map_append, hr]; rfl
      have HRI : Hid (∀ W, Below w.heap.size w W → In ET W (sv r.y) r.l) := fun W hW => by rw [← hr]; exact (HC.out _ (List.getElem_mem hlt)).below hW
      have HRZ : Hid (r.l.length ≤ 1048576) := by rw [← hr]; exact HZ2.out _ (List.getElem_mem hlt)
      have hInr := HC.out _ (List.getElem_mem hlt)
      rw [hr] at hInr
      obtain ⟨b0, c0, e0, k1, k2⟩ := hInr.slice
      obtain ⟨⟨ta, tp⟩, ⟨yb, yl, yc⟩, ps⟩ := r
      simp only [sv] at hc HRI HRZ e0
      injection e0 with e1 e2 e3
      subst e1 e2 e3
      have hCell : Hid (∀ V, Below W0.heap.size W0 V → (V.cell? ⟨Bk, off + k * 3, none⟩ = some (.string ta) ∧ V.cell? ⟨Bk, off + k * 3 + 1, none⟩ = some (.string tp) ∧ V.cell? ⟨Bk, off + k * 3 + 2, none⟩ = some (.slice yb ps.length yc)) ∧ V.cell? ⟨q, 0, none⟩ = some (.string ⟨#[109, 97, 114, 107]⟩) ∧ V.cell? ⟨q, 1, none⟩ = some (.string ⟨#[]⟩)) := fun V hV => ⟨hc V (HBw.out V hV), HQC.out V hV⟩
      have hlt' : (k : Int) < (l.length : Int) := by omega
      have HTL : Hid (((l.take k).map puR).length = k) := by show _ = _; simp; omega
      clear hc hr hInr
      simp only [sv]
      obtain ⟨⟨c0, c1, c2⟩, _⟩ := hCell.out wr hO.out.bel
      obtain ⟨pb, pc, w2, hrun, hRp, hGp⟩ := app okT wr (.slice none 0 0) [] (R.nil _ _) (.slice yb ps.length yc) ps (HRI.out _ (HBw.out _ hO.out.bel)) (by have := HRZ.out; simp [ET]; omega)
      simp only [List.length_nil, Nat.zero_add, List.nil_append] at hrun hRp hGp
      have HRUN : Hid ((Builtin.append_ #[27, 27] 27 #[.slice none 0 0, .slice yb ps.length yc]).run Try.prog wr = .ok (.slice pb ps.length pc) w2) := hrun
      have HRP : Hid (R ET w2 (.slice pb ps.length pc) ps) := hRp
      have HO2 : Hid (Lm W0 w2 (vb, vl, vc) ((l.take k).map puR)) := hO.out.below hGp.fresh
      have HNP : Hid (∀ k, (Value.slice pb ps.length pc).ownBlock = some k → W0.heap.size ≤ k) := fun k hk => by have := hGp.new k hk; have := hO.out.bel.size; omega
      have HNL : Hid (∀ k, (Value.slice pb ps.length pc).ownBlock = some k → wr.heap.size ≤ k) := fun k hk => hGp.new k hk
      have HOlt : Hid (∀ k, (Value.slice vb vl vc).ownBlock = some k → k < wr.heap.size) := hO.out.ok.choose_spec.1.lt
      have HOr : Hid (Lm W0 wr (vb, vl, vc) ((l.take k).map puR)) := hO.out
      have HBx : Hid (Below wr.heap.size wr w2) := hGp.fresh
      clear hrun hRp hGp hO
      go_wp2_with (at_builtin; refine Lib.wpList_append_run _ rfl _ _ _ _ rfl _ _ rfl rfl _ _ HRUN.out ?_)
      clear HRUN c0 c1 c2
      have oW : Hid (Lm W0 w2.drew (vb, vl, vc) ((l.take k).map puR)) := HO2.out.below (Below.refl _ _).drew
      have pW : Hid (R ET w2.drew (.slice pb ps.length pc) ps) := HRP.out.below (Below.refl _ _).drew
      have bW : Hid (Below wr.heap.size wr w2.drew) := HBx.out.drew
      refine wp_region_held_drew (S := (fun V => (V.cell? ⟨Bk, off + k * 3, none⟩ = some (.string ta) ∧ V.cell? ⟨Bk, off + k * 3 + 1, none⟩ = some (.string tp) ∧ V.cell? ⟨Bk, off + k * 3 + 2, none⟩ = some (.slice yb ps.length yc)) ∧ V.cell? ⟨q, 0, none⟩ = some (.string ⟨#[109, 97, 114, 107]⟩) ∧ V.cell? ⟨q, 1, none⟩ = some (.string ⟨#[]⟩))) (by kernel_rfl) (hCell.out _ oW.out.bel) (fun hHeld => ?_)
      generalize hWg : World.drew _ = W at oW pW bW hHeld ⊢
      clear hWg
      refine wpAnyH_take (i := 0) (oi := { dst := some 21, op := Op.move (Operand.tmp 4), type := 23, pos := "law.go:38", after := #[], guard := none }) (v := ?vv1) rfl (by kernel_rfl) (by kernel_rfl) (by kernel_rfl) (fun _ _ _ h => h) (Or.inl ⟨by rfl, ?hy1⟩) (by assumption) ?_
      case hy1 => (intro w hSw; (try dsimp only at hSw); go_simp; all_goals with_reducible rfl)
      try simp only [Act.put, List.setIfInBounds_toArray, List.set_cons_zero, List.set_cons_succ]
      refine wpAnyH_take (i := 1) (oi := { dst := some 22, op := Op.move (Operand.tmp 0), type := 23, pos := "law.go:38", after := #[], guard := none }) (v := ?vv2) rfl (by kernel_rfl) (by kernel_rfl) (by kernel_rfl) (fun _ _ _ h => h) (Or.inl ⟨by rfl, ?hy2⟩) (by assumption) ?_
      case hy2 => (intro w hSw; (try dsimp only at hSw); go_simp; all_goals with_reducible rfl)
      try simp only [Act.put, List.setIfInBounds_toArray, List.set_cons_zero, List.set_cons_succ]
      refine wpAnyH_take (i := 2) (oi := { dst := some 23, op := Op.move (Operand.tmp 5), type := 3, pos := "law.go:38", after := #[], guard := none }) (v := ?vv3) rfl (by kernel_rfl) (by kernel_rfl) (by kernel_rfl) (fun _ _ _ h => h) (Or.inl ⟨by rfl, ?hy3⟩) (by assumption) ?_
      case hy3 => (intro w hSw; (try dsimp only at hSw); go_simp; all_goals with_reducible rfl)
      try simp only [Act.put, List.setIfInBounds_toArray, List.set_cons_zero, List.set_cons_succ]
      refine wpAnyH_take (i := 3) (oi := { dst := some 24, op := Op.indexAddr 23 (Operand.tmp 22) (Operand.tmp 23), type := 0, pos := "law.go:38", after := #[{ on := 1, ground := Ground.data }, { on := 2, ground := Ground.data }], guard := none }) (v := ?vv4) rfl (by kernel_rfl) (by kernel_rfl) (by kernel_rfl) (fun _ _ _ h => h) (Or.inl ⟨by rfl, ?hy4⟩) (by assumption) ?_
      case hy4 => (intro w hSw; (try dsimp only at hSw); go_simp; all_goals with_reducible rfl)
      try simp only [Act.put, List.setIfInBounds_toArray, List.set_cons_zero, List.set_cons_succ]
      refine wpAnyH_take (i := 4) (oi := { dst := some 25, op := Op.fieldAddr 29 (Operand.tmp 24) 0, type := 0, pos := "law.go:38", after := #[{ on := 3, ground := Ground.data }], guard := none }) (v := ?vv5) rfl (by kernel_rfl) (by kernel_rfl) (by kernel_rfl) (fun _ _ _ h => h) (Or.inl ⟨by rfl, ?hy5⟩) (by assumption) ?_
      case hy5 => (intro w hSw; (try dsimp only at hSw); go_simp; all_goals with_reducible rfl)
      try simp only [Act.put, List.setIfInBounds_toArray, List.set_cons_zero, List.set_cons_succ]
      refine wpAnyH_take (i := 5) (oi := { dst := some 26, op := Op.load 26 (Operand.tmp 25), type := 26, pos := "law.go:38", after := #[{ on := 4, ground := Ground.data }], guard := none }) (v := ?vv6) rfl (by kernel_rfl) (by kernel_rfl) (by kernel_rfl) (fun _ _ _ h => h) (Or.inl ⟨by rfl, ?hy6⟩) (by assumption) ?_
      case hy6 => (intro w hSw; (try dsimp only at hSw); go_simp; all_goals with_reducible rfl)
      try simp only [Act.put, List.setIfInBounds_toArray, List.set_cons_zero, List.set_cons_succ]
      refine wpAnyH_take (i := 6) (oi := { dst := some 27, op := Op.move (Operand.tmp 6), type := 27, pos := "law.go:38", after := #[], guard := none }) (v := ?vv7) rfl (by kernel_rfl) (by kernel_rfl) (by kernel_rfl) (fun _ _ _ h => h) (Or.inl ⟨by rfl, ?hy7⟩) (by assumption) ?_
      case hy7 => (intro w hSw; (try dsimp only at hSw); go_simp; all_goals with_reducible rfl)
      try simp only [Act.put, List.setIfInBounds_toArray, List.set_cons_zero, List.set_cons_succ]
      refine wpAnyH_take (i := 7) (oi := { dst := some 28, op := Op.load 26 (Operand.tmp 3), type := 26, pos := "law.go:38", after := #[], guard := none }) (v := ?vv8) rfl (by kernel_rfl) (by kernel_rfl) (by kernel_rfl) (fun _ _ _ h => h) (Or.inl ⟨by rfl, ?hy8⟩) (by assumption) ?_
      case hy8 => (intro w hSw; (try dsimp only at hSw); go_simp; all_goals with_reducible rfl)
      try simp only [Act.put, List.setIfInBounds_toArray, List.set_cons_zero, List.set_cons_succ]
      refine wpAnyH_take (i := 10) (oi := { dst := some 31, op := Op.move (Operand.tmp 0), type := 23, pos := "law.go:38", after := #[], guard := none }) (v := ?vv9) rfl (by kernel_rfl) (by kernel_rfl) (by kernel_rfl) (fun _ _ _ h => h) (Or.inl ⟨by rfl, ?hy9⟩) (by assumption) ?_
      case hy9 => (intro w hSw; (try dsimp only at hSw); go_simp; all_goals with_reducible rfl)
      try simp only [Act.put, List.setIfInBounds_toArray, List.set_cons_zero, List.set_cons_succ]
      refine wpAnyH_take (i := 11) (oi := { dst := some 32, op := Op.move (Operand.tmp 5), type := 3, pos := "law.go:38", after := #[], guard := none }) (v := ?vv10) rfl (by kernel_rfl) (by kernel_rfl) (by kernel_rfl) (fun _ _ _ h => h) (Or.inl ⟨by rfl, ?hy10⟩) (by assumption) ?_
      case hy10 => (intro w hSw; (try dsimp only at hSw); go_simp; all_goals with_reducible rfl)
      try simp only [Act.put, List.setIfInBounds_toArray, List.set_cons_zero, List.set_cons_succ]
      refine wpAnyH_take (i := 12) (oi := { dst := some 33, op := Op.indexAddr 23 (Operand.tmp 31) (Operand.tmp 32), type := 0, pos := "law.go:38", after := #[{ on := 10, ground := Ground.data }, { on := 11, ground := Ground.data }], guard := none }) (v := ?vv11) rfl (by kernel_rfl) (by kernel_rfl) (by kernel_rfl) (fun _ _ _ h => h) (Or.inl ⟨by rfl, ?hy11⟩) (by assumption) ?_
      case hy11 => (intro w hSw; (try dsimp only at hSw); go_simp; all_goals with_reducible rfl)
      try simp only [Act.put, List.setIfInBounds_toArray, List.set_cons_zero, List.set_cons_succ]
      refine wpAnyH_take (i := 13) (oi := { dst := some 34, op := Op.fieldAddr 29 (Operand.tmp 33) 1, type := 0, pos := "law.go:38", after := #[{ on := 12, ground := Ground.data }], guard := none }) (v := ?vv12) rfl (by kernel_rfl) (by kernel_rfl) (by kernel_rfl) (fun _ _ _ h => h) (Or.inl ⟨by rfl, ?hy12⟩) (by assumption) ?_
      case hy12 => (intro w hSw; (try dsimp only at hSw); go_simp; all_goals with_reducible rfl)
      try simp only [Act.put, List.setIfInBounds_toArray, List.set_cons_zero, List.set_cons_succ]
      refine wpAnyH_take (i := 14) (oi := { dst := some 35, op := Op.load 27 (Operand.tmp 34), type := 27, pos := "law.go:38", after := #[{ on := 13, ground := Ground.data }], guard := none }) (v := ?vv13) rfl (by kernel_rfl) (by kernel_rfl) (by kernel_rfl) (fun _ _ _ h => h) (Or.inl ⟨by rfl, ?hy13⟩) (by assumption) ?_
      case hy13 => (intro w hSw; (try dsimp only at hSw); go_simp; all_goals with_reducible rfl)
      try simp only [Act.put, List.setIfInBounds_toArray, List.set_cons_zero, List.set_cons_succ]
      refine wpAnyH_take (i := 15) (oi := { dst := some 36, op := Op.call { callee := Callee.builtin Builtin.len, args := #[Operand.tmp 35], argTypes := #[27] }, type := 3, pos := "law.go:38", after := #[{ on := 14, ground := Ground.data }], guard := none }) (v := ?vv14) rfl (by kernel_rfl) (by kernel_rfl) (by kernel_rfl) (fun _ _ _ h => h) (Or.inl ⟨by rfl, ?hy14⟩) (by assumption) ?_
      case hy14 => (intro w hSw; (try dsimp only at hSw); go_simp; all_goals with_reducible rfl)
      try simp only [Act.put, List.setIfInBounds_toArray, List.set_cons_zero, List.set_cons_succ]
      refine wpAnyH_ready (rs := [8]) (by kernel_rfl) (by simp) ?_
      refine AllReadyH.cons (o := { dst := some 29, op := Op.buildSlice 27 1 #[(0, Operand.tmp 28)], type := 27, pos := "law.go:38", after := #[{ on := 7, ground := Ground.data }], guard := none }) rfl (fun K hK => ?_) AllReadyH.nil
      obtain ⟨Wx, hvWx⟩ : ∃ Wx, Wx = W.alloc (.cells #[.string ⟨#[109, 97, 114, 107]⟩, .string ⟨#[]⟩] 26) := ⟨_, rfl⟩
      have oWx : Hid (Lm W0 Wx (vb, vl, vc) ((l.take k).map puR)) := by rw [hvWx]; exact oW.out.below (bel1 _ _)
      have pWx : Hid (R ET Wx (.slice pb ps.length pc) ps) := by rw [hvWx]; exact pW.out.below (bel1 _ _)
      have bWx : Hid (Below wr.heap.size wr Wx) := by rw [hvWx]; exact bW.out.trans ((bel1 _ _).mono bW.out.size)
      have HIm : Hid (In ET Wx (.slice (some ⟨W.heap.size, 0, none⟩) 1 1) [mkT]) := by rw [hvWx]; exact in_one (E := ET) _ _ mkT #[.string ⟨#[109, 97, 114, 107]⟩, .string ⟨#[]⟩] 26 (0, 0) (by rw [heap_al, if_pos rfl]) rfl
      go_simp
      go_wp2_with fail
      rw [← hvWx]
      refine hK.out _ _ (hCell.out _ oWx.out.bel) (fun hHeld => ?_)
      clear hK K hvWx
      try simp only [Act.put, List.setIfInBounds_toArray, List.set_cons_zero, List.set_cons_succ]
      refine wpAnyH_ready (rs := [9]) (by kernel_rfl) (by simp) ?_
      refine AllReadyH.cons (o := { dst := some 30, op := Op.call { callee := Callee.builtin Builtin.append, args := #[Operand.tmp 27, Operand.tmp 29], argTypes := #[27, 27] }, type := 27, pos := "law.go:38", after := #[{ on := 6, ground := Ground.data }, { on := 8, ground := Ground.data }], guard := none }) rfl (fun K hK => ?_) AllReadyH.nil
      obtain ⟨ab, ac, Wxx, hrun, hRa, hGa⟩ := app okT Wx (.slice pb ps.length pc) ps pWx.out _ [mkT] HIm.out (by have := HRZ.out; simp [ET]; omega)
      simp only [List.length_singleton] at hrun hRa hGa
      have hbl : Below wr.heap.size wr Wxx := bWx.out.trans (hGa.belowB bWx.out.size HNL.out)
      have oWxx : Hid (Lm W0 Wxx (vb, vl, vc) ((l.take k).map puR)) := HOr.out.below hbl
      have bWxx : Hid (Below wr.heap.size wr Wxx) := hbl
      have rWxx : Hid (R ET Wxx (.slice ab (ps.length + 1) ac) (ps ++ [mkT])) := hRa
      have nWxx : Hid (∀ k, (Value.slice ab ps.length ac).ownBlock = some k → W0.heap.size ≤ k) := fun k hk => by
        rcases hGa.own k (by rw [← hk]; exact own_len _ _ _ _ _) with h | h
        · exact HNP.out k h
        · have := bWx.out.size; have := HOr.out.bel.size; omega
      obtain ⟨b0, c0, e0, k3, k4⟩ := hRa.slice
      injection e0 with e1 e2 e3
      rw [← e3] at k3 k4
      simp only [List.length_append, List.length_singleton] at k3
      have hle : (ps.length : Int) ≤ (ac : Int) := by omega
      have hle2 : ps.length ≤ ac := by omega
      clear hRa hGa hbl e1 e2 e3 k3
      refine step_append_run rfl (.tmp 27) (.tmp 29) 27 27 rfl hrun (by first | rfl | simp [Act.eval, Act.put]) (by first | rfl | simp [Act.eval, Act.put]) ?_
      refine hK.out _ _ (hCell.out _ oWxx.out.bel) (fun hHeld => ?_)
      clear hK K hrun
      try simp only [Act.put, List.setIfInBounds_toArray, List.set_cons_zero, List.set_cons_succ]
      refine wpAnyH_take (i := 16) (oi := { dst := some 37, op := Op.slice 27 (Operand.tmp 30) none (some (Operand.tmp 36)) none, type := 27, pos := "law.go:38", after := #[{ on := 9, ground := Ground.data }, { on := 15, ground := Ground.data }], guard := none }) (v := ?vv15) rfl (by kernel_rfl) (by kernel_rfl) (by kernel_rfl) (fun _ _ _ h => h) (Or.inl ⟨by rfl, ?hy15⟩) (by assumption) ?_
      case hy15 => (intro w hSw; (try dsimp only at hSw); go_simp; all_goals with_reducible rfl)
      try simp only [Act.put, List.setIfInBounds_toArray, List.set_cons_zero, List.set_cons_succ]
      refine wpAnyH_take (i := 17) (oi := { dst := some 38, op := Op.build 29 #[(0, Operand.tmp 26), (1, Operand.tmp 37)], type := 29, pos := "law.go:38", after := #[{ on := 5, ground := Ground.data }, { on := 16, ground := Ground.data }], guard := none }) (v := ?vv16) rfl (by kernel_rfl) (by kernel_rfl) (by kernel_rfl) (fun _ _ _ h => h) (Or.inl ⟨by rfl, ?hy16⟩) (by assumption) ?_
      case hy16 => (intro w hSw; (try dsimp only at hSw); go_simp; all_goals with_reducible rfl)
      try simp only [Act.put, List.setIfInBounds_toArray, List.set_cons_zero, List.set_cons_succ]
      refine wpAnyH_ready (rs := [18]) (by kernel_rfl) (by simp) ?_
      refine AllReadyH.cons (o := { dst := some 39, op := Op.buildSlice 23 1 #[(0, Operand.tmp 38)], type := 23, pos := "law.go:38", after := #[{ on := 17, ground := Ground.data }], guard := none }) rfl (fun K hK => ?_) AllReadyH.nil
      obtain ⟨Wxxx, hvWxxx⟩ : ∃ Wxxx, Wxxx = Wxx.alloc (.cells #[.string ta, .string tp, .slice ab ps.length ac] 29) := ⟨_, rfl⟩
      have oWxxx : Hid (Lm W0 Wxxx (vb, vl, vc) ((l.take k).map puR)) := by rw [hvWxxx]; exact oWxx.out.below (bel1 _ _)
      have rWxxx : Hid (LT W0.heap.size Wxxx ⟨(ta, tp), (ab, ps.length, ac), ps⟩) := by rw [hvWxxx]; exact ⟨rWxx.out.below (bel1 _ _), rfl, nWxx.out⟩
      have HIn1 : Hid (In ER Wxxx (.slice (some ⟨Wxx.heap.size, 0, none⟩) 1 1) [⟨(ta, tp), (ab, ps.length, ac), ps⟩]) := by rw [hvWxxx]; exact in_one (E := ER) _ _ (⟨(ta, tp), (ab, ps.length, ac), ps⟩ : Ru) #[.string ta, .string tp, .slice ab ps.length ac] 29 (0, 0) (by rw [heap_al, if_pos rfl]) rfl
      go_simp
      go_wp2_with fail
      rw [← hvWxxx]
      refine hK.out _ _ (hCell.out _ oWxxx.out.bel) (fun hHeld => ?_)
      clear hK K hvWxxx
      try simp only [Act.put, List.setIfInBounds_toArray, List.set_cons_zero, List.set_cons_succ]
      refine wpAnyH_ready (rs := [19]) (by kernel_rfl) (by simp) ?_
      refine AllReadyH.cons (o := { dst := some 40, op := Op.call { callee := Callee.builtin Builtin.append, args := #[Operand.tmp 21, Operand.tmp 39], argTypes := #[23, 23] }, type := 23, pos := "law.go:38", after := #[{ on := 0, ground := Ground.data }, { on := 18, ground := Ground.data }, { on := 9, ground := Ground.chain }], guard := none }) rfl (fun K hK => ?_) AllReadyH.nil
      obtain ⟨bb, bc, Wxxxx, hrun, hOa⟩ := oWxxx.out.grow ⟨(ta, tp), (ab, ps.length, ac), ps⟩ rWxxx.out _ HIn1.out (by rw [HTL.out]; have := HZ.out; omega)
      rw [HTL.out] at hrun hOa
      have oWxxxx : Hid (Lm W0 Wxxxx (bb, k + 1, bc) ((l.take (k + 1)).map puR)) := by rw [HTK.out]; exact hOa
      clear hOa
      simp only [sv] at hrun
      refine step_append_run rfl (.tmp 21) (.tmp 39) 23 23 rfl hrun (by first | rfl | simp [Act.eval, Act.put]) (by first | rfl | simp [Act.eval, Act.put]) ?_
      refine hK.out _ _ (hCell.out _ oWxxxx.out.bel) (fun hHeld => ?_)
      clear hK K hrun
      try simp only [Act.put, List.setIfInBounds_toArray, List.set_cons_zero, List.set_cons_succ]
      refine wpAnyH_take (i := 20) (oi := { dst := some 4, op := Op.assign (Operand.tmp 40), type := 23, pos := "law.go:38", after := #[{ on := 19, ground := Ground.data }, { on := 19, ground := Ground.chain }, { on := 0, ground := Ground.phase }, { on := 1, ground := Ground.phase }, { on := 2, ground := Ground.phase }, { on := 3, ground := Ground.phase }, { on := 4, ground := Ground.phase }, { on := 5, ground := Ground.phase }, { on := 6, ground := Ground.phase }, { on := 7, ground := Ground.phase }, { on := 8, ground := Ground.phase }, { on := 9, ground := Ground.phase }, { on := 10, ground := Ground.phase }, { on := 11, ground := Ground.phase }, { on := 12, ground := Ground.phase }, { on := 13, ground := Ground.phase }, { on := 14, ground := Ground.phase }, { on := 15, ground := Ground.phase }, { on := 16, ground := Ground.phase }, { on := 17, ground := Ground.phase }, { on := 18, ground := Ground.phase }, { on := 19, ground := Ground.phase }], guard := none }) (v := ?vv17) rfl (by kernel_rfl) (by kernel_rfl) (by kernel_rfl) (fun _ _ _ h => h) (Or.inl ⟨by rfl, ?hy17⟩) (by assumption) ?_
      case hy17 => (intro w hSw; (try dsimp only at hSw); go_simp; all_goals with_reducible rfl)
      try simp only [Act.put, List.setIfInBounds_toArray, List.set_cons_zero, List.set_cons_succ]
      refine wpAnyH_done (by kernel_rfl) ?_ _
      go_wp2_with fail
      go_roundw
      case rel => exact ⟨k + 1, (bb, k + 1, bc), by simp, by omega, rfl, oWxxxx.out⟩
      case measure => simp [intOf]; omega
    · obtain rfl : k = l.length := by omega
      have hlt' : ¬ (l.length : Int) < (l.length : Int) := by omega
      have hvl := hO.out.slice
      simp only [List.length_map, List.take_length] at hvl
      subst hvl
      obtain ⟨q0, q1⟩ := HQC.out wr hO.out.bel
      have hO1 := hO.out.below (bel1 wr (.cells #[.string ⟨#[109, 97, 114, 107]⟩, .string ⟨#[]⟩, .slice none 0 0] 29))
      obtain ⟨⟨ls, hR, hLT, hps⟩, hbl, hnw⟩ := hO1
      rw [List.take_length] at hps
      have hll : ls.length = l.length := by have := congrArg List.length hps; simpa using this
      obtain ⟨ab, ac, w4, hrun, hRa, hGa⟩ := app okR _ _ ls hR (.slice (some ⟨wr.heap.size, 0, none⟩) 1 1) [mkU] (in_one (E := ER) _ _ mkU #[.string ⟨#[109, 97, 114, 107]⟩, .string ⟨#[]⟩, .slice none 0 0] 29 (0, 0) (by rw [heap_al, if_pos rfl]) rfl) (by rw [hll]; have := HZ.out; simp [ER]; omega)
      simp only [List.length_singleton, sv] at hrun hRa hGa
      have hnn : ∀ k, (sv (ab, l.length, ac)).ownBlock = some k → w.heap.size ≤ k := fun k hk => by
        rcases hGa.own k (by rw [← hk]; exact own_len _ _ _ _ _) with h | h
        · have := hnw k h; have := HB0.out.size; omega
        · have := hbl.size; have := HB0.out.size; omega
      have HLN : Hid (LePost (l.map puR) w (.returned (sv (ab, l.length, ac))) w4) := ⟨(ab, l.length, ac), ls, rfl, ⟨hRa, hll.symm, fun r hr => by
        have h := (hLT r hr).other hR hGa
        exact ⟨h.1, h.2.1, fun k hk => by have := h.2.2 k hk; have := HB0.out.size; omega⟩, hnn⟩, hps, HB0.out.trans ((hbl.trans (hGa.belowB hbl.size hnw)).mono HB0.out.size)⟩
      rw [hll] at hrun hRa
      obtain ⟨b0, c0, e0, k3, k4⟩ := hRa.slice
      injection e0 with e1 e2 e3
      rw [← e3] at k3 k4
      simp only [List.length_append, List.length_singleton, hll] at k3
      have HRUN : Hid ((Builtin.append_ #[23, 23] 23 #[.slice vb l.length vc, .slice (some ⟨wr.heap.size, 0, none⟩) 1 1]).run Try.prog (wr.alloc (.cells #[.string ⟨#[109, 97, 114, 107]⟩, .string ⟨#[]⟩, .slice none 0 0] 29)) = .ok (.slice ab (l.length + 1) ac) w4) := hrun
      have hle : (l.length : Int) ≤ (ac : Int) := by omega
      have hle2 : l.length ≤ ac := by omega
      simp only [sv] at HLN
      clear hrun hRa hGa hR hLT hps hbl hnw hnn hO e1 e2 e3 k3
      go_wp2_with (at_builtin; refine Lib.wpList_append_run _ rfl _ _ _ _ rfl _ _ rfl rfl _ _ HRUN.out ?_)
      go_ret
      exact HLN.out
end Go.Proofs.Ytldnibkgdpeocaa
