/- page, own. -/
import Derived.Test.YtldnibkgdpeocaaC1
import Derived.Laws.BitsLemmas
import Derived.Laws.Bits64
namespace Go.Proofs.Ytldnibkgdpeocaa
open Go.RowKit Go.Maps
open Go.Shelf
set_option linter.unusedVariables false
set_option linter.unusedSimpArgs false

theorem wraps_i64_63 (n : Int) (h₀ : 0 ≤ n) (h₁ : n < 2 ^ 63) : IntKind.i64.wrap n = n := by rw [IntKind.wrap_i64]; omega
theorem and_any (n : Int) (p : Nat) (hp : p ≤ 62) : bits .and .i64 n ((2 ^ p - 1 : Nat) : Int) = n % ((2 ^ p : Nat) : Int) := by
  have hpp : 2 ^ p < 2 ^ 63 := Nat.pow_lt_pow_right (by decide) (by omega)
  have hpos : 0 < 2 ^ p := Nat.two_pow_pos p
  have hd : 2 ^ p ∣ 2 ^ 64 := Nat.pow_dvd_pow 2 (by omega)
  have hb : (BitVec.ofInt 64 ((2 ^ p - 1 : Nat) : Int)).toNat = 2 ^ p - 1 := by
    rw [BitVec.ofInt_natCast, BitVec.toNat_ofNat]; exact Nat.mod_eq_of_lt (by omega)
  have ha : (BitVec.ofInt 64 n).toNat = (n % ((2 ^ 64 : Nat) : Int)).toNat := BitVec.toNat_ofInt n
  have key : (n % ((2 ^ 64 : Nat) : Int)).toNat % 2 ^ p = (n % ((2 ^ p : Nat) : Int)).toNat := by
    have h1 : 0 ≤ n % ((2 ^ 64 : Nat) : Int) := Int.emod_nonneg _ (by decide)
    have h2 : 0 ≤ n % ((2 ^ p : Nat) : Int) := Int.emod_nonneg _ (by omega)
    apply Int.ofNat.inj
    show (((n % ((2 ^ 64 : Nat) : Int)).toNat % 2 ^ p : Nat) : Int) = (((n % ((2 ^ p : Nat) : Int)).toNat : Nat) : Int)
    rw [Int.natCast_emod, Int.toNat_of_nonneg h1, Int.toNat_of_nonneg h2]
    exact Int.emod_emod_of_dvd n (Int.natCast_dvd_natCast.2 hd)
  have h2 : 0 ≤ n % ((2 ^ p : Nat) : Int) := Int.emod_nonneg _ (by omega)
  have h3 : n % ((2 ^ p : Nat) : Int) < ((2 ^ p : Nat) : Int) := Int.emod_lt_of_pos _ (by omega)
  show IntKind.i64.wrap (((BitVec.ofInt 64 n) &&& (BitVec.ofInt 64 ((2 ^ p - 1 : Nat) : Int))).toNat : Int) = _
  rw [BitVec.toNat_and, ha, hb, Nat.and_two_pow_sub_one_eq_mod, key, Int.toNat_of_nonneg h2]
  exact wraps_i64_63 _ h2 (by omega)
theorem and15 (n : Int) : bits .and .i64 n 15 = n % 16 := and_any n 4 (by decide)
/-- which of the sixteen -/
def pgN (n : Int) : Nat := (n % 16).toNat
theorem pgN_lt (n : Int) : pgN n < 16 := by unfold pgN; omega
theorem pgN_and (n : Int) : bits .and .i64 n 15 = (pgN n : Int) := by rw [and15]; unfold pgN; omega
theorem pgN_nat {i : Nat} (h : i < 16) : pgN (i : Int) = i := by unfold pgN; omega
def hostS : ByteArray := ⟨#[104, 111, 115, 116]⟩
def pgT (m : Nat) : Tg := (hostS, ⟨#[47, (97 + m).toUInt8]⟩)
theorem sixteen {P : Nat → Prop} (h : P 0 ∧ P 1 ∧ P 2 ∧ P 3 ∧ P 4 ∧ P 5 ∧ P 6 ∧ P 7 ∧ P 8 ∧ P 9 ∧ P 10 ∧ P 11 ∧ P 12 ∧ P 13 ∧ P 14 ∧ P 15) (m : Nat) (hm : m < 16) : P m := by
  have : m = 0 ∨ m = 1 ∨ m = 2 ∨ m = 3 ∨ m = 4 ∨ m = 5 ∨ m = 6 ∨ m = 7 ∨ m = 8 ∨ m = 9 ∨ m = 10 ∨ m = 11 ∨ m = 12 ∨ m = 13 ∨ m = 14 ∨ m = 15 := by omega
  rcases this with rfl | rfl | rfl | rfl | rfl | rfl | rfl | rfl | rfl | rfl | rfl | rfl | rfl | rfl | rfl | rfl
  all_goals simp only [h]

theorem conv_one (x : UInt8) (w : World) (g : Nat) (h : w.heap[g]? = some (.cells #[.int .u8 (x.toNat : Int)] 5 (0, 0))) : (convert 58 9 (.slice (some ⟨g, 0, none⟩) 1 1)).run Try.prog w = .ok (.string ⟨#[x]⟩) w := by
  have := run_convert_bytes_back (P := Try.prog) w 58 9 5 ⟨g, 0, none⟩ 1 [x] Try.underlying58 Try.underlying5 Try.underlying9 (fun j hj => by
    simp at hj
    subst hj
    rw [Addr.add_lit, cell_blk h]
    rfl)
  exact this
set_option maxHeartbeats 8000000 in
theorem page_any (n : Int) (w : World) : Calls Try.prog 11 #[.int .i64 n] w fun e w' => e = .returned (.agg (tgv (pgT (pgN n)))) ∧ Below w.heap.size w w' := by
  have ha := pgN_and n
  have hm := pgN_lt n
  obtain ⟨m, hm'⟩ : ∃ m, pgN n = m := ⟨_, rfl⟩
  rw [hm'] at ha hm ⊢
  clear hm'
  obtain ⟨X, hX⟩ : ∃ X : UInt8, X = (97 + m).toUInt8 := ⟨_, rfl⟩
  have hXn : X.toNat = 97 + m := by rw [hX]; simp; omega
  unfold pgT tgv hostS
  rw [← hX]
  clear hX
  simp only
  have h1 : IntKind.u8.wrap (m : Int) = (m : Int) := by rw [IntKind.wrap_u8]; omega
  have h2 : IntKind.u8.wrap (97 + (m : Int)) = (X.toNat : Int) := by rw [IntKind.wrap_u8, hXn]; omega
  have h3 := conv_one X ((w.alloc (.cells #[.string ⟨#[]⟩, .string ⟨#[]⟩] 26)).alloc (.cells #[.int .u8 (X.toNat : Int)] 5)) (w.heap.size + 1) (fresh2 _ _ _)
  clear hXn
  go_enter Try.func11, Try.ntmps11
  go_wp2_with fail
  have hap : (⟨#[47]⟩ : ByteArray) ++ ⟨#[X]⟩ = ⟨#[47, X]⟩ := by first | rfl | (apply ByteArray.ext; simp)
  rw [hap]
  refine bodyPost_ret (results_cell_row (p := 2) (ty := 26) rfl _ _ w.heap.size 26 _ (0, 0) _ rfl (by rw [heap_al, if_neg (by simp), heap_al, if_pos rfl]) Try.underlying26 rfl (by kernel_rfl)) rfl ⟨rfl, bel2 _ _ _⟩

/-- rules of one's own -/
def OwPost (ps : List Pu) (w : World) (e : Ending) (w' : World) : Prop := ∃ (y : SV) (rs : List Ru), e = .returned (sv y) ∧ R ER w' (sv y) rs ∧ (∀ r ∈ rs, R ET w' (sv r.y) r.l) ∧ rs.map puR = ps ∧ Below w.heap.size w w' ∧ (∀ k, (sv y).ownBlock = some k → w.heap.size ≤ k)
theorem R.other {α β : Type} {E : El α} {F : El β} {w w' : World} {u v : Value} {l : List α} {k : List β} {v' : Value} (h : R E w u l) (hF : R F w v k) (hne : E.e ≠ F.e) (hG : Gr w w' v v') : R E w' u l :=
  h.stays fun i hi hl => hG.block i hl fun e => by
    obtain ⟨c, hc⟩ := h.ty i hi
    obtain ⟨d, hd⟩ := hF.ty i e
    rw [hc] at hd
    injection hd with hd
    injection hd with _ hd
    exact hne hd
/-- rules that are being made since w -/
structure Om (w wr : World) (v : SV) (ps : List Pu) : Prop where
  ok : ∃ rs : List Ru, R ER wr (sv v) rs ∧ (∀ r ∈ rs, R ET wr (sv r.y) r.l) ∧ rs.map puR = ps
  bel : Below w.heap.size w wr
  new : ∀ k, (sv v).ownBlock = some k → w.heap.size ≤ k
theorem Om.start (w : World) : Om w w (none, 0, 0) [] := ⟨⟨[], R.nil _ _, fun r hr => by simp at hr, rfl⟩, Below.refl _ _, fun k hk => by simp [sv, Value.ownBlock] at hk⟩
theorem Om.below {w wr W : World} {v : SV} {ps : List Pu} (h : Om w wr v ps) (hb : Below wr.heap.size wr W) : Om w W v ps := by
  obtain ⟨⟨rs, h1, h2, h3⟩, h4, h5⟩ := h
  exact ⟨⟨rs, h1.below hb, fun r hr => (h2 r hr).below hb, h3⟩, h4.trans (hb.mono h4.size), h5⟩
theorem Om.slice {w wr : World} {v : SV} {ps : List Pu} (h : Om w wr v ps) : v.2.1 = ps.length := by
  obtain ⟨⟨rs, h1, h2, h3⟩, _⟩ := h
  obtain ⟨b, c, e, _⟩ := h1.slice
  obtain ⟨vb, vl, vc⟩ := v
  simp only [sv] at e
  injection e with e1 e2 e3
  rw [← h3, List.length_map]
  exact e2
/-- one rule more -/
theorem Om.grow {w wr : World} {v : SV} {ps : List Pu} (h : Om w wr v ps) (t : Tg) (y : SV) (l : List Tg) (hR : R ET wr (sv y) l) (x : Value) (hx : In ER wr x [⟨t, y, l⟩]) (hz : (ps.length + 1) * 56 ≤ 140737488355328) :
    ∃ b c W, (Builtin.append_ #[23, 23] 23 #[sv v, x]).run Try.prog wr = .ok (.slice b (ps.length + 1) c) W ∧ Om w W (b, ps.length + 1, c) (ps ++ [(t, l)]) ∧ Gr wr W (sv v) (.slice b (ps.length + 1) c) := by
  obtain ⟨⟨rs, h1, h2, h3⟩, h4, h5⟩ := h
  have hlen : rs.length = ps.length := by rw [← h3, List.length_map]
  obtain ⟨b, c, W, hrun, hR2, hG⟩ := app okR wr (sv v) rs h1 x [⟨t, y, l⟩] hx (by rw [hlen]; exact hz)
  rw [hlen] at hrun hR2 hG
  simp only [List.length_singleton] at hrun hR2 hG
  refine ⟨b, c, W, hrun, ⟨⟨rs ++ [(⟨t, y, l⟩ : Ru)], hR2, fun r hr => ?_, by rw [List.map_append, h3]; rfl⟩, ?_, fun k hk => ?_⟩, hG⟩
  · rcases List.mem_append.1 hr with hr | hr
    · exact (h2 r hr).other h1 (by decide) hG
    · rw [List.mem_singleton.1 hr]
      exact hR.other h1 (by decide) hG
  · exact h4.trans (hG.belowB h4.size h5)
  · rcases hG.own k hk with h | h
    · exact h5 k h
    · have := h4.size; omega
theorem Om.post {w wr : World} {v : SV} {ps : List Pu} (h : Om w wr v ps) : OwPost ps w (.returned (sv v)) wr := by
  obtain ⟨⟨rs, h1, h2, h3⟩, h4, h5⟩ := h
  exact ⟨v, rs, rfl, h1, h2, h3, h4, h5⟩

set_option maxHeartbeats 8000000 in
set_option maxRecDepth 100000 in
theorem own_any (x : SV) (l : List Ru) (w : World) (hI : In ER w (sv x) l) (hC : PsIn w l) (hz : l.length * 56 ≤ 140737488355328) (hz2 : ∀ r ∈ l, r.l.length * 32 ≤ 140737488355328) :
    Calls Try.prog 9 #[sv x] w fun e w' => OwPost (l.map puR) w e w' := by
  have HI : Hid (In ER w (sv x) l) := hI
  have HC : Hid (PsIn w l) := hC
  have HZ : Hid (l.length * 56 ≤ 140737488355328) := hz
  have HZ2 : Hid (∀ r ∈ l, r.l.length * 32 ≤ 140737488355328) := hz2
  obtain ⟨b, c, e, m1, m2⟩ := hI.slice
  obtain ⟨sb, sl, sc⟩ := x
  simp only [sv] at e HI ⊢
  injection e with e1 e2 e3
  subst e1 e2 e3
  clear hI hC hz hz2
  go_enter Try.func9, Try.ntmps9
  go_wp2_with fail
  go_loopw [3, 4] (fun tv kv wr => ∃ (k : Nat) (v : SV), kv = .int .i64 (k : Int) ∧ k ≤ l.length ∧ tv = sv v ∧ Hid (Om w wr v ((l.take k).map puR))) (fun _ kv _ => l.length - (intOf kv).toNat)
  case atStart => exact ⟨0, (none, 0, 0), rfl, by omega, rfl, Om.start w⟩
  case round =>
    obtain ⟨k, v, rfl, hk, rfl, hO⟩ := hrel
    by_cases hlt : k < l.length
    · obtain ⟨Bk, off, cap, e, hBk, hc⟩ := HI.out.ru k hlt
      injection e with e1 e2 e3
      clear e2 e3
      subst e1
      obtain ⟨r, hr⟩ : ∃ r, l[k] = r := ⟨_, rfl⟩
      rw [hr] at hc
      have HTK : Hid ((l.take (k + 1)).map puR = (l.take k).map puR ++ [puR r]) := by show _ = _; rw [List.take_succ_eq_append_getElem hlt, List.map_append, hr]; rfl
      have HRI : Hid (∀ W, Below w.heap.size w W → In ET W (sv r.y) r.l) := fun W hW => by rw [← hr]; exact (HC.out _ (List.getElem_mem hlt)).below hW
      have HRZ : Hid (r.l.length * 32 ≤ 140737488355328) := by rw [← hr]; exact HZ2.out _ (List.getElem_mem hlt)
      obtain ⟨⟨ta, tp⟩, ⟨yb, yl, yc⟩, ps⟩ := r
      simp only [sv] at hc HRI HRZ
      have hCell : Hid (∀ V, Below w.heap.size w V → V.cell? ⟨Bk, off + k * 3, none⟩ = some (.string ta) ∧ V.cell? ⟨Bk, off + k * 3 + 1, none⟩ = some (.string tp) ∧ V.cell? ⟨Bk, off + k * 3 + 2, none⟩ = some (.slice yb yl yc)) := hc
      have hlt' : (k : Int) < (l.length : Int) := by omega
      have HTL : Hid (((l.take k).map puR).length = k) := by show _ = _; simp; omega
      have HK : Hid ((k + 1) * 56 ≤ 140737488355328) := by have := HZ.out; show (k + 1) * 56 ≤ _; omega
      clear hc hr
      obtain ⟨vb, vl, vc⟩ := v
      simp only [sv]
      go_wp2_with fail
      have oW : Hid (Om w wr.drew (vb, vl, vc) ((l.take k).map puR)) := hO.out.below (Below.refl _ _).drew
      refine wp_region_held_drew (S := (fun V => V.cell? ⟨Bk, off + k * 3, none⟩ = some (.string ta) ∧ V.cell? ⟨Bk, off + k * 3 + 1, none⟩ = some (.string tp) ∧ V.cell? ⟨Bk, off + k * 3 + 2, none⟩ = some (.slice yb yl yc))) (by kernel_rfl) (hCell.out _ oW.out.bel) (fun hHeld => ?_)
      generalize hWg : World.drew _ = W at oW hHeld ⊢
      clear hWg
      refine wpAnyH_take (i := 0) (oi := { dst := some 11, op := Op.move (Operand.tmp 3), type := 23, pos := "law.go:26", after := #[], guard := none }) (v := ?vv1) rfl (by kernel_rfl) (by kernel_rfl) (by kernel_rfl) (fun _ _ _ h => h) (Or.inl ⟨by rfl, ?hy1⟩) (by assumption) ?_
      case hy1 => (intro w hSw; (try dsimp only at hSw); go_simp; all_goals with_reducible rfl)
      try simp only [Act.put, List.setIfInBounds_toArray, List.set_cons_zero, List.set_cons_succ]
      refine wpAnyH_take (i := 1) (oi := { dst := some 12, op := Op.move (Operand.tmp 0), type := 23, pos := "law.go:26", after := #[], guard := none }) (v := ?vv2) rfl (by kernel_rfl) (by kernel_rfl) (by kernel_rfl) (fun _ _ _ h => h) (Or.inl ⟨by rfl, ?hy2⟩) (by assumption) ?_
      case hy2 => (intro w hSw; (try dsimp only at hSw); go_simp; all_goals with_reducible rfl)
      try simp only [Act.put, List.setIfInBounds_toArray, List.set_cons_zero, List.set_cons_succ]
      refine wpAnyH_take (i := 2) (oi := { dst := some 13, op := Op.move (Operand.tmp 4), type := 3, pos := "law.go:26", after := #[], guard := none }) (v := ?vv3) rfl (by kernel_rfl) (by kernel_rfl) (by kernel_rfl) (fun _ _ _ h => h) (Or.inl ⟨by rfl, ?hy3⟩) (by assumption) ?_
      case hy3 => (intro w hSw; (try dsimp only at hSw); go_simp; all_goals with_reducible rfl)
      try simp only [Act.put, List.setIfInBounds_toArray, List.set_cons_zero, List.set_cons_succ]
      refine wpAnyH_take (i := 3) (oi := { dst := some 14, op := Op.indexAddr 23 (Operand.tmp 12) (Operand.tmp 13), type := 0, pos := "law.go:26", after := #[{ on := 1, ground := Ground.data }, { on := 2, ground := Ground.data }], guard := none }) (v := ?vv4) rfl (by kernel_rfl) (by kernel_rfl) (by kernel_rfl) (fun _ _ _ h => h) (Or.inl ⟨by rfl, ?hy4⟩) (by assumption) ?_
      case hy4 => (intro w hSw; (try dsimp only at hSw); go_simp; all_goals with_reducible rfl)
      try simp only [Act.put, List.setIfInBounds_toArray, List.set_cons_zero, List.set_cons_succ]
      refine wpAnyH_take (i := 4) (oi := { dst := some 15, op := Op.fieldAddr 29 (Operand.tmp 14) 0, type := 0, pos := "law.go:26", after := #[{ on := 3, ground := Ground.data }], guard := none }) (v := ?vv5) rfl (by kernel_rfl) (by kernel_rfl) (by kernel_rfl) (fun _ _ _ h => h) (Or.inl ⟨by rfl, ?hy5⟩) (by assumption) ?_
      case hy5 => (intro w hSw; (try dsimp only at hSw); go_simp; all_goals with_reducible rfl)
      try simp only [Act.put, List.setIfInBounds_toArray, List.set_cons_zero, List.set_cons_succ]
      refine wpAnyH_take (i := 5) (oi := { dst := some 16, op := Op.load 26 (Operand.tmp 15), type := 26, pos := "law.go:26", after := #[{ on := 4, ground := Ground.data }], guard := none }) (v := ?vv6) rfl (by kernel_rfl) (by kernel_rfl) (by kernel_rfl) (fun _ _ _ h => h) (Or.inl ⟨by rfl, ?hy6⟩) (by assumption) ?_
      case hy6 => (intro w hSw; (try dsimp only at hSw); go_simp; all_goals with_reducible rfl)
      try simp only [Act.put, List.setIfInBounds_toArray, List.set_cons_zero, List.set_cons_succ]
      refine wpAnyH_take (i := 6) (oi := { dst := some 17, op := Op.move (Operand.tmp 0), type := 23, pos := "law.go:26", after := #[], guard := none }) (v := ?vv7) rfl (by kernel_rfl) (by kernel_rfl) (by kernel_rfl) (fun _ _ _ h => h) (Or.inl ⟨by rfl, ?hy7⟩) (by assumption) ?_
      case hy7 => (intro w hSw; (try dsimp only at hSw); go_simp; all_goals with_reducible rfl)
      try simp only [Act.put, List.setIfInBounds_toArray, List.set_cons_zero, List.set_cons_succ]
      refine wpAnyH_take (i := 7) (oi := { dst := some 18, op := Op.move (Operand.tmp 4), type := 3, pos := "law.go:26", after := #[], guard := none }) (v := ?vv8) rfl (by kernel_rfl) (by kernel_rfl) (by kernel_rfl) (fun _ _ _ h => h) (Or.inl ⟨by rfl, ?hy8⟩) (by assumption) ?_
      case hy8 => (intro w hSw; (try dsimp only at hSw); go_simp; all_goals with_reducible rfl)
      try simp only [Act.put, List.setIfInBounds_toArray, List.set_cons_zero, List.set_cons_succ]
      refine wpAnyH_take (i := 8) (oi := { dst := some 19, op := Op.indexAddr 23 (Operand.tmp 17) (Operand.tmp 18), type := 0, pos := "law.go:26", after := #[{ on := 6, ground := Ground.data }, { on := 7, ground := Ground.data }], guard := none }) (v := ?vv9) rfl (by kernel_rfl) (by kernel_rfl) (by kernel_rfl) (fun _ _ _ h => h) (Or.inl ⟨by rfl, ?hy9⟩) (by assumption) ?_
      case hy9 => (intro w hSw; (try dsimp only at hSw); go_simp; all_goals with_reducible rfl)
      try simp only [Act.put, List.setIfInBounds_toArray, List.set_cons_zero, List.set_cons_succ]
      refine wpAnyH_take (i := 9) (oi := { dst := some 20, op := Op.fieldAddr 29 (Operand.tmp 19) 1, type := 0, pos := "law.go:26", after := #[{ on := 8, ground := Ground.data }], guard := none }) (v := ?vv10) rfl (by kernel_rfl) (by kernel_rfl) (by kernel_rfl) (fun _ _ _ h => h) (Or.inl ⟨by rfl, ?hy10⟩) (by assumption) ?_
      case hy10 => (intro w hSw; (try dsimp only at hSw); go_simp; all_goals with_reducible rfl)
      try simp only [Act.put, List.setIfInBounds_toArray, List.set_cons_zero, List.set_cons_succ]
      refine wpAnyH_take (i := 10) (oi := { dst := some 21, op := Op.load 27 (Operand.tmp 20), type := 27, pos := "law.go:26", after := #[{ on := 9, ground := Ground.data }], guard := none }) (v := ?vv11) rfl (by kernel_rfl) (by kernel_rfl) (by kernel_rfl) (fun _ _ _ h => h) (Or.inl ⟨by rfl, ?hy11⟩) (by assumption) ?_
      case hy11 => (intro w hSw; (try dsimp only at hSw); go_simp; all_goals with_reducible rfl)
      try simp only [Act.put, List.setIfInBounds_toArray, List.set_cons_zero, List.set_cons_succ]
      refine wpAnyH_ready (rs := [11]) (by kernel_rfl) (by simp) ?_
      refine AllReadyH.cons (o := { dst := some 22, op := Op.call { callee := Callee.builtin Builtin.append, args := #[Operand.const (Value.slice none 0 0), Operand.tmp 21], argTypes := #[27, 27] }, type := 27, pos := "law.go:26", after := #[{ on := 10, ground := Ground.data }], guard := none }) rfl (fun K hK => ?_) AllReadyH.nil
      obtain ⟨ab, ac, Wx, hrun, hRa, hGa⟩ := app okT W (.slice none 0 0) [] (R.nil _ _) (.slice yb yl yc) ps (HRI.out _ oW.out.bel) (by have := HRZ.out; simp [ET]; omega)
      have oWx : Hid (Om w Wx (vb, vl, vc) ((l.take k).map puR)) := oW.out.below hGa.fresh
      simp only [List.length_nil, Nat.zero_add, List.nil_append] at hrun hRa
      have HRa : Hid (R ET Wx (.slice ab ps.length ac) ps) := hRa
      clear hRa hGa
      refine step_append_run rfl (.const (.slice none 0 0)) (.tmp 21) 27 27 rfl hrun (by first | rfl | simp [Act.eval, Act.put]) (by first | rfl | simp [Act.eval, Act.put]) ?_
      refine hK.out _ _ (hCell.out _ oWx.out.bel) (fun hHeld => ?_)
      clear hK K hrun
      try simp only [Act.put, List.setIfInBounds_toArray, List.set_cons_zero, List.set_cons_succ]
      refine wpAnyH_take (i := 12) (oi := { dst := some 23, op := Op.build 29 #[(0, Operand.tmp 16), (1, Operand.tmp 22)], type := 29, pos := "law.go:26", after := #[{ on := 5, ground := Ground.data }, { on := 11, ground := Ground.data }], guard := none }) (v := ?vv12) rfl (by kernel_rfl) (by kernel_rfl) (by kernel_rfl) (fun _ _ _ h => h) (Or.inl ⟨by rfl, ?hy12⟩) (by assumption) ?_
      case hy12 => (intro w hSw; (try dsimp only at hSw); go_simp; all_goals with_reducible rfl)
      try simp only [Act.put, List.setIfInBounds_toArray, List.set_cons_zero, List.set_cons_succ]
      refine wpAnyH_ready (rs := [13]) (by kernel_rfl) (by simp) ?_
      refine AllReadyH.cons (o := { dst := some 24, op := Op.buildSlice 23 1 #[(0, Operand.tmp 23)], type := 23, pos := "law.go:26", after := #[{ on := 12, ground := Ground.data }], guard := none }) rfl (fun K hK => ?_) AllReadyH.nil
      obtain ⟨Wxx, hvWxx⟩ : ∃ Wxx, Wxx = Wx.alloc (.cells #[.string ta, .string tp, .slice ab ps.length ac] 29) := ⟨_, rfl⟩
      have oWxx : Hid (Om w Wxx (vb, vl, vc) ((l.take k).map puR)) := by rw [hvWxx]; exact oWx.out.below (bel1 _ _)
      have HRb : Hid (R ET Wxx (.slice ab ps.length ac) ps) := by rw [hvWxx]; exact HRa.out.below (bel1 _ _)
      have HIn1 : Hid (In ER Wxx (.slice (some ⟨Wx.heap.size, 0, none⟩) 1 1) [⟨(ta, tp), (ab, ps.length, ac), ps⟩]) := by rw [hvWxx]; exact in_one (E := ER) _ _ (⟨(ta, tp), (ab, ps.length, ac), ps⟩ : Ru) #[.string ta, .string tp, .slice ab ps.length ac] 29 (0, 0) (by rw [heap_al, if_pos rfl]) rfl
      go_simp
      go_wp2_with fail
      rw [← hvWxx]
      refine hK.out _ _ (hCell.out _ oWxx.out.bel) (fun hHeld => ?_)
      clear hK K hvWxx
      try simp only [Act.put, List.setIfInBounds_toArray, List.set_cons_zero, List.set_cons_succ]
      refine wpAnyH_ready (rs := [14]) (by kernel_rfl) (by simp) ?_
      refine AllReadyH.cons (o := { dst := some 25, op := Op.call { callee := Callee.builtin Builtin.append, args := #[Operand.tmp 11, Operand.tmp 24], argTypes := #[23, 23] }, type := 23, pos := "law.go:26", after := #[{ on := 0, ground := Ground.data }, { on := 13, ground := Ground.data }, { on := 11, ground := Ground.chain }], guard := none }) rfl (fun K hK => ?_) AllReadyH.nil
      obtain ⟨bb, bc, Wxxx, hrun, hOa, hGa⟩ := oWxx.out.grow (ta, tp) (ab, ps.length, ac) ps HRb.out _ HIn1.out (by rw [HTL.out]; exact HK.out)
      rw [HTL.out] at hrun hOa
      have oWxxx : Hid (Om w Wxxx (bb, k + 1, bc) ((l.take (k + 1)).map puR)) := by rw [HTK.out]; exact hOa
      clear hOa hGa
      simp only [sv] at hrun
      refine step_append_run rfl (.tmp 11) (.tmp 24) 23 23 rfl hrun (by first | rfl | simp [Act.eval, Act.put]) (by first | rfl | simp [Act.eval, Act.put]) ?_
      refine hK.out _ _ (hCell.out _ oWxxx.out.bel) (fun hHeld => ?_)
      clear hK K hrun
      try simp only [Act.put, List.setIfInBounds_toArray, List.set_cons_zero, List.set_cons_succ]
      refine wpAnyH_take (i := 15) (oi := { dst := some 3, op := Op.assign (Operand.tmp 25), type := 23, pos := "law.go:26", after := #[{ on := 14, ground := Ground.data }, { on := 14, ground := Ground.chain }, { on := 0, ground := Ground.phase }, { on := 1, ground := Ground.phase }, { on := 2, ground := Ground.phase }, { on := 3, ground := Ground.phase }, { on := 4, ground := Ground.phase }, { on := 5, ground := Ground.phase }, { on := 6, ground := Ground.phase }, { on := 7, ground := Ground.phase }, { on := 8, ground := Ground.phase }, { on := 9, ground := Ground.phase }, { on := 10, ground := Ground.phase }, { on := 11, ground := Ground.phase }, { on := 12, ground := Ground.phase }, { on := 13, ground := Ground.phase }, { on := 14, ground := Ground.phase }], guard := none }) (v := ?vv13) rfl (by kernel_rfl) (by kernel_rfl) (by kernel_rfl) (fun _ _ _ h => h) (Or.inl ⟨by rfl, ?hy13⟩) (by assumption) ?_
      case hy13 => (intro w hSw; (try dsimp only at hSw); go_simp; all_goals with_reducible rfl)
      try simp only [Act.put, List.setIfInBounds_toArray, List.set_cons_zero, List.set_cons_succ]
      refine wpAnyH_done (by kernel_rfl) ?_ _
      go_wp2_with fail
      go_roundw
      case rel => exact ⟨k + 1, (bb, k + 1, bc), by simp, by omega, rfl, oWxxx.out⟩
      case measure => simp [intOf]; omega
    · obtain rfl : k = l.length := by omega
      have hlt' : ¬ (l.length : Int) < (l.length : Int) := by omega
      obtain ⟨vb, vl, vc⟩ := v
      have HP := hO.out.post
      rw [List.take_length] at HP
      have HPP : Hid (OwPost (l.map puR) w (.returned (sv (vb, vl, vc))) wr) := HP
      clear HP
      simp only [sv] at HPP ⊢
      go_wp2_with fail
      go_ret
      exact HPP.out
end Go.Proofs.Ytldnibkgdpeocaa
