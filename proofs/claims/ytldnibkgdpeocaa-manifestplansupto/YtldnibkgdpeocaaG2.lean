/- kept: lent rules are as they were. -/
import Derived.Test.YtldnibkgdpeocaaG1
namespace Go.Proofs.Ytldnibkgdpeocaa
open Go.RowKit Go.Maps
open Go.Shelf
set_option linter.unusedVariables false
set_option linter.unusedSimpArgs false

theorem wrapS (L : Nat) (h : L ≤ 1048576) : wrap64 ((L : Int) + 1) = ((L + 1 : Nat) : Int) := by unfold wrap64; omega
theorem wrapK (L : Nat) (h : L ≤ 1048576) : IntKind.i64.wrap ((L : Int) + 1) = ((L + 1 : Nat) : Int) := by rw [IntKind.wrap_i64]; omega
theorem neq_self (a p : ByteArray) (W : World) : (binOp .neq 26 (.agg #[.string a, .string p]) (.agg #[.string a, .string p])).run Try.prog W = .ok (.bool false) W := by
  rw [neq_tg, decide_eq_true rfl]
  rfl
theorem eql_self (a p : ByteArray) (W : World) : (binOp .eql 26 (.agg #[.string a, .string p]) (.agg #[.string a, .string p])).run Try.prog W = .ok (.bool true) W := by
  rw [eql_tg, decide_eq_true rfl]
set_option maxHeartbeats 16000000 in
set_option maxRecDepth 100000 in
theorem kept_any (w0 : World) (y x : SV) (ls rs : List Ru) (w : World) (hL : Ln w0 w y ls) (hI : In ER w (sv x) rs) (hC : PsIn w rs) (hps : ls.map puR = rs.map puR) (hz : rs.length ≤ 1048576) (hz2 : ∀ r ∈ rs, r.l.length ≤ 1048576) :
    Calls Try.prog 18 #[sv y, sv x] w fun e w' => e = .returned (.bool true) ∧ Below w.heap.size w w' := by
  have HL : Hid (Ln w0 w y ls) := hL
  have HI : Hid (In ER w (sv x) rs) := hI
  have HC : Hid (PsIn w rs) := hC
  have HPS : Hid (ls.map puR = rs.map puR) := hps
  have HZ2 : Hid (∀ r ∈ rs, r.l.length ≤ 1048576) := hz2
  have hlen : ls.length = rs.length := by have := congrArg List.length hps; simpa using this
  obtain ⟨n, hn⟩ : ∃ n, n = rs.length := ⟨_, rfl⟩
  have HN : Hid (n = rs.length ∧ n = ls.length) := ⟨hn, by omega⟩
  obtain ⟨yb, yl, yc⟩ := y
  have hyl := hL.len
  simp only at hyl
  have hrow := hL.row
  simp only at hrow
  obtain ⟨B0, o0, c9, e, hB0, hcN⟩ := hrow.isIn.get okR ls.length (by simp)
  injection e with e1 e2 e3
  simp only [List.length_append, List.length_singleton] at e2
  subst e1
  obtain ⟨b7, c7, e7, k5, k6⟩ := hrow.slice
  injection e7 with f1 f2 f3
  rw [← f3] at k5 k6
  simp only [List.length_append, List.length_singleton] at k5
  have HMN : Hid (∀ V, Below w.heap.size w V → V.cell? ⟨B0, o0 + n * 3, none⟩ = some (.string ⟨#[109, 97, 114, 107]⟩) ∧ V.cell? ⟨B0, o0 + n * 3 + 1, none⟩ = some (.string ⟨#[]⟩) ∧ V.cell? ⟨B0, o0 + n * 3 + 2, none⟩ = some (.slice none 0 0)) := fun V hV => by
    have hg : (ls ++ [mkU])[ls.length]'(by simp) = mkU := by simp
    rw [hg] at hcN
    have a0 := hcN 0 _ rfl
    have a1 := hcN 1 _ rfl
    have a2 := hcN 2 _ rfl
    rw [HN.out.2]
    exact ⟨(hV.cell hB0).trans a0, (hV.cell (p := ⟨B0, _, none⟩) hB0).trans a1, (hV.cell (p := ⟨B0, _, none⟩) hB0).trans a2⟩
  have HMI : Hid (In ER w (.slice (some ⟨B0, o0, none⟩) ls.length yc) ls) := by have := hL.isIn.1; simp only [sv] at this; rw [hyl] at this; exact this
  obtain ⟨b, c, e, m1, m2⟩ := hI.slice
  obtain ⟨sb, sl, sc⟩ := x
  simp only [sv] at e HI ⊢
  injection e with g1 g2 g3
  subst g1 g2 g3
  rw [hyl, ← HN.out.2]
  rw [← HN.out.2] at HMI k5
  rw [← hn] at HI m1 hz ⊢
  clear hL hI hC hps hz2 hlen hn hyl hrow hcN e2 e3 f1 f2 f3
  obtain ⟨W0, hW0⟩ : ∃ W0, W0 = w.alloc (.cells #[.string ⟨#[109, 97, 114, 107]⟩, .string ⟨#[]⟩] 26) := ⟨_, rfl⟩
  obtain ⟨q, hq⟩ : ∃ q, q = w.heap.size := ⟨_, rfl⟩
  have HB0 : Hid (Below w.heap.size w W0) := by rw [hW0]; exact bel1 _ _
  have HQ0 : Hid (W0.heap[q]? = some (.cells #[.string ⟨#[109, 97, 114, 107]⟩, .string ⟨#[]⟩] 26 (0, 0))) := by show _ = _; rw [hW0, hq, heap_al, if_pos rfl]
  have HQC : Hid (∀ V, Below W0.heap.size W0 V → V.cell? ⟨q, 0, none⟩ = some (.string ⟨#[109, 97, 114, 107]⟩) ∧ V.cell? ⟨q, 1, none⟩ = some (.string ⟨#[]⟩)) := fun V hV => ⟨cell_blk ((hV.block _ (heap_lt HQ0.out)).trans HQ0.out) 0, cell_blk ((hV.block _ (heap_lt HQ0.out)).trans HQ0.out) 1⟩
  obtain ⟨n1, hn1⟩ : ∃ n1, n1 = n + 1 := ⟨_, rfl⟩
  have hw1 : wrap64 ((n : Int) + 1) = (n1 : Int) := by unfold wrap64; omega
  have hw2 : IntKind.i64.wrap ((n : Int) + 1) = (n1 : Int) := by rw [IntKind.wrap_i64]; omega
  have l5 : (n1 : Int) ≤ (yc : Int) := by omega
  have l6 : n1 ≤ yc := by omega
  have HN1 : Hid (n1 = n + 1) := hn1
  clear hn1
  go_enter Try.func18, Try.ntmps18
  go_upto_region 2 with fail
  rw [← hW0, ← hq]
  clear hW0 hq
  go_wp2_with fail
  go_loopw [7, 8] (fun kv _ wr => ∃ k : Nat, kv = .int .i64 (k : Int) ∧ k ≤ n ∧ Hid (Below W0.heap.size W0 wr)) (fun kv _ _ => n - (intOf kv).toNat)
  case atStart => exact ⟨0, rfl, by omega, Below.refl _ _⟩
  case round =>
    obtain ⟨k, rfl, hk, hb⟩ := hrel
    have HBw : Hid (∀ V, Below wr.heap.size wr V → Below w.heap.size w V) := fun V hV => HB0.out.trans ((hb.out.trans (hV.mono hb.out.size)).mono HB0.out.size)
    by_cases hlt : k < n
    · have l1 : (k : Int) < (n : Int) := by omega
      have l7 : (k : Int) < (n1 : Int) := by have := HN1.out; omega
      have hkr : k < rs.length := by have := HN.out; omega
      have hkl : k < ls.length := by have := HN.out; omega
      obtain ⟨Bk, off, cap, e, hBk, hc⟩ := HI.out.ru k hkr
      injection e with e1 e2 e3
      clear e2 e3
      subst e1
      obtain ⟨Bm, om, cm, e, hBm, hcm⟩ := HMI.out.ru k hkl
      injection e with e1 e2 e3
      injection e1 with e1
      injection e1 with e1 e4 _
      clear e2 e3
      subst e1 e4
      have hpu : puR ls[k] = puR rs[k] := by
        have h1 : (ls.map puR)[k]? = (rs.map puR)[k]? := by rw [HPS.out]
        rw [List.getElem?_map, List.getElem?_map, List.getElem?_eq_getElem hkl, List.getElem?_eq_getElem hkr] at h1
        exact Option.some.inj h1
      obtain ⟨r, hr⟩ : ∃ r, rs[k] = r := ⟨_, rfl⟩
      obtain ⟨s, hs⟩ : ∃ s, ls[k] = s := ⟨_, rfl⟩
      rw [hr, hs] at hpu
      rw [hr] at hc
      rw [hs] at hcm
      have hLT := HL.out.each s (by rw [← hs]; exact List.getElem_mem hkl)
      have hRI := HC.out r (by rw [← hr]; exact List.getElem_mem hkr)
      have hRZ := HZ2.out r (by rw [← hr]; exact List.getElem_mem hkr)
      obtain ⟨⟨ta, tp⟩, ⟨ub, ul, uc⟩, l⟩ := r
      obtain ⟨T2, ⟨zb, zl, zc⟩, l2⟩ := s
      simp only [puR, Prod.mk.injEq] at hpu
      obtain ⟨rfl, rfl⟩ := hpu
      have hzl := hLT.2.1
      simp only at hzl
      have hrow := hLT.1
      simp only at hrow
      obtain ⟨Bz, oz, cz, ez, hBz, hcz⟩ := hrow.isIn.tg l2.length (by simp)
      injection ez with e1 e2 e3
      clear e2
      subst e1
      have hgl : (l2 ++ [mkT])[l2.length]'(by simp) = mkT := by simp
      rw [hgl] at hcz
      obtain ⟨b8, c8, e8, k7, k8⟩ := hrow.slice
      injection e8 with f1 f2 f3
      rw [← f3] at k7 k8
      simp only [List.length_append, List.length_singleton] at k7
      have HZI := hLT.isIn
      simp only [sv] at hc hcm hRI HZI
      obtain ⟨b9, c9, e9, k9, ka⟩ := hRI.slice
      injection e9 with x1 x2 x3
      subst x1 x2 x3
      subst hzl
      simp only at hRZ
      obtain ⟨L, hLL⟩ : ∃ L, L = l2.length := ⟨_, rfl⟩
      have HLL : Hid (L = l2.length) := hLL
      have HRI : Hid (In ET w (.slice ub L uc) l2) := by rw [hLL]; exact hRI
      have HZJ : Hid (In ET w (.slice (some ⟨Bz, oz, none⟩) L zc) l2) := by rw [hLL]; exact HZI
      rw [← hLL] at hc hcm hcz k7 k9 hRZ
      unfold mkT markS at hcz
      simp only at hcz
      have HCy : Hid (∀ V, Below wr.heap.size wr V → (V.cell? ⟨Bk, off + k * 3, none⟩ = some (.string ta) ∧ V.cell? ⟨Bk, off + k * 3 + 1, none⟩ = some (.string tp) ∧ V.cell? ⟨Bk, off + k * 3 + 2, none⟩ = some (.slice ub L uc)) ∧ (V.cell? ⟨B0, o0 + k * 3, none⟩ = some (.string ta) ∧ V.cell? ⟨B0, o0 + k * 3 + 1, none⟩ = some (.string tp) ∧ V.cell? ⟨B0, o0 + k * 3 + 2, none⟩ = some (.slice (some ⟨Bz, oz, none⟩) L zc)) ∧ (V.cell? ⟨Bz, oz + L * 2, none⟩ = some (.string ⟨#[109, 97, 114, 107]⟩) ∧ V.cell? ⟨Bz, oz + L * 2 + 1, none⟩ = some (.string ⟨#[]⟩)) ∧ V.cell? ⟨q, 0, none⟩ = some (.string ⟨#[109, 97, 114, 107]⟩) ∧ V.cell? ⟨q, 1, none⟩ = some (.string ⟨#[]⟩)) := fun V hV => ⟨hc V (HBw.out V hV), hcm V (HBw.out V hV), hcz V (HBw.out V hV), HQC.out V (hb.out.trans (hV.mono hb.out.size))⟩
      have HSM : Hid (∀ V, Below wr.heap.size wr V → Calls Try.prog 13 #[.slice (some ⟨Bz, oz, none⟩) L zc, .slice ub L uc] V fun e w' => e = .returned (.bool true) ∧ Below V.heap.size V w') := fun V hV => by
        have := same_any (some ⟨Bz, oz, none⟩, L, zc) (ub, L, uc) l2 l2 V (HZJ.out.below (HBw.out V hV)) (HRI.out.below (HBw.out V hV))
        rw [decide_eq_true rfl] at this
        exact this
      obtain ⟨L1, hL1⟩ : ∃ L1, L1 = L + 1 := ⟨_, rfl⟩
      have hv1 : wrap64 ((L : Int) + 1) = (L1 : Int) := by rw [hL1]; exact wrapS L hRZ
      have hv2 : IntKind.i64.wrap ((L : Int) + 1) = (L1 : Int) := by rw [hL1]; exact wrapK L hRZ
      have l9 : L1 ≤ zc := by rw [hL1]; exact k7
      have l8 : (L1 : Int) ≤ (zc : Int) := Int.ofNat_le.2 l9
      have lb : L < L1 := by rw [hL1]; exact Nat.lt_succ_self _
      have la : (L : Int) < (L1 : Int) := Int.ofNat_lt.2 lb
      have hq1 := neq_self ta tp
      have hq2 := neq_self ⟨#[109, 97, 114, 107]⟩ ⟨#[]⟩
      clear hc hcm hcz hLT hRI hRZ hrow hgl HZI e3 f1 f2 f3 hLL hL1 hr hs k7 k9
      go_wp2_with fail
      have hbW : Below wr.heap.size wr wr.drew := (Below.refl wr.heap.size wr).drew
      refine wp_region_held_drew (S := (fun V => (V.cell? ⟨Bk, off + k * 3, none⟩ = some (.string ta) ∧ V.cell? ⟨Bk, off + k * 3 + 1, none⟩ = some (.string tp) ∧ V.cell? ⟨Bk, off + k * 3 + 2, none⟩ = some (.slice ub L uc)) ∧ (V.cell? ⟨B0, o0 + k * 3, none⟩ = some (.string ta) ∧ V.cell? ⟨B0, o0 + k * 3 + 1, none⟩ = some (.string tp) ∧ V.cell? ⟨B0, o0 + k * 3 + 2, none⟩ = some (.slice (some ⟨Bz, oz, none⟩) L zc)) ∧ (V.cell? ⟨Bz, oz + L * 2, none⟩ = some (.string ⟨#[109, 97, 114, 107]⟩) ∧ V.cell? ⟨Bz, oz + L * 2 + 1, none⟩ = some (.string ⟨#[]⟩)) ∧ V.cell? ⟨q, 0, none⟩ = some (.string ⟨#[109, 97, 114, 107]⟩) ∧ V.cell? ⟨q, 1, none⟩ = some (.string ⟨#[]⟩))) (by kernel_rfl) (HCy.out _ hbW) (fun hHeld => ?_)
      generalize hWg : World.drew _ = W at hbW hHeld ⊢
      clear hWg
      refine wpAnyH_take (i := 0) (oi := { dst := some 21, op := Op.move (Operand.tmp 0), type := 23, pos := "law.go:48", after := #[], guard := none }) (v := ?vv1) rfl (by kernel_rfl) (by kernel_rfl) (by kernel_rfl) (fun _ _ _ h => h) (Or.inl ⟨by rfl, ?hy1⟩) (by assumption) ?_
      case hy1 => (intro w hSw; (try dsimp only at hSw); go_simp; all_goals with_reducible rfl)
      try simp only [Act.put, List.setIfInBounds_toArray, List.set_cons_zero, List.set_cons_succ]
      refine wpAnyH_take (i := 1) (oi := { dst := some 22, op := Op.move (Operand.tmp 7), type := 3, pos := "law.go:48", after := #[], guard := none }) (v := ?vv2) rfl (by kernel_rfl) (by kernel_rfl) (by kernel_rfl) (fun _ _ _ h => h) (Or.inl ⟨by rfl, ?hy2⟩) (by assumption) ?_
      case hy2 => (intro w hSw; (try dsimp only at hSw); go_simp; all_goals with_reducible rfl)
      try simp only [Act.put, List.setIfInBounds_toArray, List.set_cons_zero, List.set_cons_succ]
      refine wpAnyH_take (i := 2) (oi := { dst := some 23, op := Op.indexAddr 23 (Operand.tmp 21) (Operand.tmp 22), type := 0, pos := "law.go:48", after := #[{ on := 0, ground := Ground.data }, { on := 1, ground := Ground.data }], guard := none }) (v := ?vv3) rfl (by kernel_rfl) (by kernel_rfl) (by kernel_rfl) (fun _ _ _ h => h) (Or.inl ⟨by rfl, ?hy3⟩) (by assumption) ?_
      case hy3 => (intro w hSw; (try dsimp only at hSw); go_simp; all_goals with_reducible rfl)
      try simp only [Act.put, List.setIfInBounds_toArray, List.set_cons_zero, List.set_cons_succ]
      refine wpAnyH_take (i := 3) (oi := { dst := some 24, op := Op.fieldAddr 29 (Operand.tmp 23) 1, type := 0, pos := "law.go:48", after := #[{ on := 2, ground := Ground.data }], guard := none }) (v := ?vv4) rfl (by kernel_rfl) (by kernel_rfl) (by kernel_rfl) (fun _ _ _ h => h) (Or.inl ⟨by rfl, ?hy4⟩) (by assumption) ?_
      case hy4 => (intro w hSw; (try dsimp only at hSw); go_simp; all_goals with_reducible rfl)
      try simp only [Act.put, List.setIfInBounds_toArray, List.set_cons_zero, List.set_cons_succ]
      refine wpAnyH_take (i := 4) (oi := { dst := some 25, op := Op.load 27 (Operand.tmp 24), type := 27, pos := "law.go:48", after := #[{ on := 3, ground := Ground.data }], guard := none }) (v := ?vv5) rfl (by kernel_rfl) (by kernel_rfl) (by kernel_rfl) (fun _ _ _ h => h) (Or.inl ⟨by rfl, ?hy5⟩) (by assumption) ?_
      case hy5 => (intro w hSw; (try dsimp only at hSw); go_simp; all_goals with_reducible rfl)
      try simp only [Act.put, List.setIfInBounds_toArray, List.set_cons_zero, List.set_cons_succ]
      refine wpAnyH_take (i := 5) (oi := { dst := some 26, op := Op.move (Operand.tmp 1), type := 23, pos := "law.go:48", after := #[], guard := none }) (v := ?vv6) rfl (by kernel_rfl) (by kernel_rfl) (by kernel_rfl) (fun _ _ _ h => h) (Or.inl ⟨by rfl, ?hy6⟩) (by assumption) ?_
      case hy6 => (intro w hSw; (try dsimp only at hSw); go_simp; all_goals with_reducible rfl)
      try simp only [Act.put, List.setIfInBounds_toArray, List.set_cons_zero, List.set_cons_succ]
      refine wpAnyH_take (i := 6) (oi := { dst := some 27, op := Op.move (Operand.tmp 7), type := 3, pos := "law.go:48", after := #[], guard := none }) (v := ?vv7) rfl (by kernel_rfl) (by kernel_rfl) (by kernel_rfl) (fun _ _ _ h => h) (Or.inl ⟨by rfl, ?hy7⟩) (by assumption) ?_
      case hy7 => (intro w hSw; (try dsimp only at hSw); go_simp; all_goals with_reducible rfl)
      try simp only [Act.put, List.setIfInBounds_toArray, List.set_cons_zero, List.set_cons_succ]
      refine wpAnyH_take (i := 7) (oi := { dst := some 28, op := Op.indexAddr 23 (Operand.tmp 26) (Operand.tmp 27), type := 0, pos := "law.go:48", after := #[{ on := 5, ground := Ground.data }, { on := 6, ground := Ground.data }], guard := none }) (v := ?vv8) rfl (by kernel_rfl) (by kernel_rfl) (by kernel_rfl) (fun _ _ _ h => h) (Or.inl ⟨by rfl, ?hy8⟩) (by assumption) ?_
      case hy8 => (intro w hSw; (try dsimp only at hSw); go_simp; all_goals with_reducible rfl)
      try simp only [Act.put, List.setIfInBounds_toArray, List.set_cons_zero, List.set_cons_succ]
      refine wpAnyH_take (i := 8) (oi := { dst := some 29, op := Op.fieldAddr 29 (Operand.tmp 28) 1, type := 0, pos := "law.go:48", after := #[{ on := 7, ground := Ground.data }], guard := none }) (v := ?vv9) rfl (by kernel_rfl) (by kernel_rfl) (by kernel_rfl) (fun _ _ _ h => h) (Or.inl ⟨by rfl, ?hy9⟩) (by assumption) ?_
      case hy9 => (intro w hSw; (try dsimp only at hSw); go_simp; all_goals with_reducible rfl)
      try simp only [Act.put, List.setIfInBounds_toArray, List.set_cons_zero, List.set_cons_succ]
      refine wpAnyH_take (i := 9) (oi := { dst := some 30, op := Op.load 27 (Operand.tmp 29), type := 27, pos := "law.go:48", after := #[{ on := 8, ground := Ground.data }], guard := none }) (v := ?vv10) rfl (by kernel_rfl) (by kernel_rfl) (by kernel_rfl) (fun _ _ _ h => h) (Or.inl ⟨by rfl, ?hy10⟩) (by assumption) ?_
      case hy10 => (intro w hSw; (try dsimp only at hSw); go_simp; all_goals with_reducible rfl)
      try simp only [Act.put, List.setIfInBounds_toArray, List.set_cons_zero, List.set_cons_succ]
      refine wpAnyH_take (i := 10) (oi := { dst := some 31, op := Op.call { callee := Callee.builtin Builtin.len, args := #[Operand.tmp 30], argTypes := #[27] }, type := 3, pos := "law.go:48", after := #[{ on := 9, ground := Ground.data }], guard := none }) (v := ?vv11) rfl (by kernel_rfl) (by kernel_rfl) (by kernel_rfl) (fun _ _ _ h => h) (Or.inl ⟨by rfl, ?hy11⟩) (by assumption) ?_
      case hy11 => (intro w hSw; (try dsimp only at hSw); go_simp; all_goals with_reducible rfl)
      try simp only [Act.put, List.setIfInBounds_toArray, List.set_cons_zero, List.set_cons_succ]
      refine wpAnyH_take (i := 11) (oi := { dst := some 32, op := Op.binOp BinOp.add 3 (Operand.tmp 31) (Operand.const (Value.int IntKind.i64 1)) 3, type := 3, pos := "law.go:48", after := #[{ on := 10, ground := Ground.data }], guard := none }) (v := ?vv12) rfl (by kernel_rfl) (by kernel_rfl) (by kernel_rfl) (fun _ _ _ h => h) (Or.inl ⟨by rfl, ?hy12⟩) (by assumption) ?_
      case hy12 => (intro w hSw; (try dsimp only at hSw); go_simp; all_goals with_reducible rfl)
      try simp only [Act.put, List.setIfInBounds_toArray, List.set_cons_zero, List.set_cons_succ]
      refine wpAnyH_take (i := 12) (oi := { dst := some 33, op := Op.slice 27 (Operand.tmp 25) none (some (Operand.tmp 32)) none, type := 27, pos := "law.go:48", after := #[{ on := 4, ground := Ground.data }, { on := 11, ground := Ground.data }], guard := none }) (v := ?vv13) rfl (by kernel_rfl) (by kernel_rfl) (by kernel_rfl) (fun _ _ _ h => h) (Or.inl ⟨by rfl, ?hy13⟩) (by assumption) ?_
      case hy13 => (intro w hSw; (try dsimp only at hSw); go_simp; all_goals with_reducible rfl)
      try simp only [Act.put, List.setIfInBounds_toArray, List.set_cons_zero, List.set_cons_succ]
      refine wpAnyH_take (i := 13) (oi := { dst := some 8, op := Op.assign (Operand.tmp 33), type := 27, pos := "law.go:48", after := #[{ on := 12, ground := Ground.data }, { on := 0, ground := Ground.phase }, { on := 1, ground := Ground.phase }, { on := 2, ground := Ground.phase }, { on := 3, ground := Ground.phase }, { on := 4, ground := Ground.phase }, { on := 5, ground := Ground.phase }, { on := 6, ground := Ground.phase }, { on := 7, ground := Ground.phase }, { on := 8, ground := Ground.phase }, { on := 9, ground := Ground.phase }, { on := 10, ground := Ground.phase }, { on := 11, ground := Ground.phase }, { on := 12, ground := Ground.phase }], guard := none }) (v := ?vv14) rfl (by kernel_rfl) (by kernel_rfl) (by kernel_rfl) (fun _ _ _ h => h) (Or.inl ⟨by rfl, ?hy14⟩) (by assumption) ?_
      case hy14 => (intro w hSw; (try dsimp only at hSw); go_simp; all_goals with_reducible rfl)
      try simp only [Act.put, List.setIfInBounds_toArray, List.set_cons_zero, List.set_cons_succ]
      refine wpAnyH_done (by kernel_rfl) ?_ _
      clear hHeld
      go_wp2_with fail
      have hbQ : Below wr.heap.size wr W.drew := hbW.drew
      refine wp_region_held_drew (S := (fun V => (V.cell? ⟨Bk, off + k * 3, none⟩ = some (.string ta) ∧ V.cell? ⟨Bk, off + k * 3 + 1, none⟩ = some (.string tp) ∧ V.cell? ⟨Bk, off + k * 3 + 2, none⟩ = some (.slice ub L uc)) ∧ (V.cell? ⟨B0, o0 + k * 3, none⟩ = some (.string ta) ∧ V.cell? ⟨B0, o0 + k * 3 + 1, none⟩ = some (.string tp) ∧ V.cell? ⟨B0, o0 + k * 3 + 2, none⟩ = some (.slice (some ⟨Bz, oz, none⟩) L zc)) ∧ (V.cell? ⟨Bz, oz + L * 2, none⟩ = some (.string ⟨#[109, 97, 114, 107]⟩) ∧ V.cell? ⟨Bz, oz + L * 2 + 1, none⟩ = some (.string ⟨#[]⟩)) ∧ V.cell? ⟨q, 0, none⟩ = some (.string ⟨#[109, 97, 114, 107]⟩) ∧ V.cell? ⟨q, 1, none⟩ = some (.string ⟨#[]⟩))) (by kernel_rfl) (HCy.out _ hbQ) (fun hHeld => ?_)
      generalize hWg : World.drew _ = Q at hbQ hHeld ⊢
      clear hWg
      refine wpAnyH_take (i := 0) (oi := { dst := some 34, op := Op.move (Operand.tmp 0), type := 23, pos := "law.go:49", after := #[], guard := none }) (v := ?vv15) rfl (by kernel_rfl) (by kernel_rfl) (by kernel_rfl) (fun _ _ _ h => h) (Or.inl ⟨by rfl, ?hy15⟩) (by assumption) ?_
      case hy15 => (intro w hSw; (try dsimp only at hSw); go_simp; all_goals with_reducible rfl)
      try simp only [Act.put, List.setIfInBounds_toArray, List.set_cons_zero, List.set_cons_succ]
      refine wpAnyH_take (i := 1) (oi := { dst := some 35, op := Op.move (Operand.tmp 7), type := 3, pos := "law.go:49", after := #[], guard := none }) (v := ?vv16) rfl (by kernel_rfl) (by kernel_rfl) (by kernel_rfl) (fun _ _ _ h => h) (Or.inl ⟨by rfl, ?hy16⟩) (by assumption) ?_
      case hy16 => (intro w hSw; (try dsimp only at hSw); go_simp; all_goals with_reducible rfl)
      try simp only [Act.put, List.setIfInBounds_toArray, List.set_cons_zero, List.set_cons_succ]
      refine wpAnyH_take (i := 2) (oi := { dst := some 36, op := Op.indexAddr 23 (Operand.tmp 34) (Operand.tmp 35), type := 0, pos := "law.go:49", after := #[{ on := 0, ground := Ground.data }, { on := 1, ground := Ground.data }], guard := none }) (v := ?vv17) rfl (by kernel_rfl) (by kernel_rfl) (by kernel_rfl) (fun _ _ _ h => h) (Or.inl ⟨by rfl, ?hy17⟩) (by assumption) ?_
      case hy17 => (intro w hSw; (try dsimp only at hSw); go_simp; all_goals with_reducible rfl)
      try simp only [Act.put, List.setIfInBounds_toArray, List.set_cons_zero, List.set_cons_succ]
      refine wpAnyH_take (i := 3) (oi := { dst := some 37, op := Op.fieldAddr 29 (Operand.tmp 36) 0, type := 0, pos := "law.go:49", after := #[{ on := 2, ground := Ground.data }], guard := none }) (v := ?vv18) rfl (by kernel_rfl) (by kernel_rfl) (by kernel_rfl) (fun _ _ _ h => h) (Or.inl ⟨by rfl, ?hy18⟩) (by assumption) ?_
      case hy18 => (intro w hSw; (try dsimp only at hSw); go_simp; all_goals with_reducible rfl)
      try simp only [Act.put, List.setIfInBounds_toArray, List.set_cons_zero, List.set_cons_succ]
      refine wpAnyH_take (i := 4) (oi := { dst := some 38, op := Op.load 26 (Operand.tmp 37), type := 26, pos := "law.go:49", after := #[{ on := 3, ground := Ground.data }], guard := none }) (v := ?vv19) rfl (by kernel_rfl) (by kernel_rfl) (by kernel_rfl) (fun _ _ _ h => h) (Or.inl ⟨by rfl, ?hy19⟩) (by assumption) ?_
      case hy19 => (intro w hSw; (try dsimp only at hSw); go_simp; all_goals with_reducible rfl)
      try simp only [Act.put, List.setIfInBounds_toArray, List.set_cons_zero, List.set_cons_succ]
      refine wpAnyH_take (i := 5) (oi := { dst := some 39, op := Op.move (Operand.tmp 1), type := 23, pos := "law.go:49", after := #[], guard := none }) (v := ?vv20) rfl (by kernel_rfl) (by kernel_rfl) (by kernel_rfl) (fun _ _ _ h => h) (Or.inl ⟨by rfl, ?hy20⟩) (by assumption) ?_
      case hy20 => (intro w hSw; (try dsimp only at hSw); go_simp; all_goals with_reducible rfl)
      try simp only [Act.put, List.setIfInBounds_toArray, List.set_cons_zero, List.set_cons_succ]
      refine wpAnyH_take (i := 6) (oi := { dst := some 40, op := Op.move (Operand.tmp 7), type := 3, pos := "law.go:49", after := #[], guard := none }) (v := ?vv21) rfl (by kernel_rfl) (by kernel_rfl) (by kernel_rfl) (fun _ _ _ h => h) (Or.inl ⟨by rfl, ?hy21⟩) (by assumption) ?_
      case hy21 => (intro w hSw; (try dsimp only at hSw); go_simp; all_goals with_reducible rfl)
      try simp only [Act.put, List.setIfInBounds_toArray, List.set_cons_zero, List.set_cons_succ]
      refine wpAnyH_take (i := 7) (oi := { dst := some 41, op := Op.indexAddr 23 (Operand.tmp 39) (Operand.tmp 40), type := 0, pos := "law.go:49", after := #[{ on := 5, ground := Ground.data }, { on := 6, ground := Ground.data }], guard := none }) (v := ?vv22) rfl (by kernel_rfl) (by kernel_rfl) (by kernel_rfl) (fun _ _ _ h => h) (Or.inl ⟨by rfl, ?hy22⟩) (by assumption) ?_
      case hy22 => (intro w hSw; (try dsimp only at hSw); go_simp; all_goals with_reducible rfl)
      try simp only [Act.put, List.setIfInBounds_toArray, List.set_cons_zero, List.set_cons_succ]
      refine wpAnyH_take (i := 8) (oi := { dst := some 42, op := Op.fieldAddr 29 (Operand.tmp 41) 0, type := 0, pos := "law.go:49", after := #[{ on := 7, ground := Ground.data }], guard := none }) (v := ?vv23) rfl (by kernel_rfl) (by kernel_rfl) (by kernel_rfl) (fun _ _ _ h => h) (Or.inl ⟨by rfl, ?hy23⟩) (by assumption) ?_
      case hy23 => (intro w hSw; (try dsimp only at hSw); go_simp; all_goals with_reducible rfl)
      try simp only [Act.put, List.setIfInBounds_toArray, List.set_cons_zero, List.set_cons_succ]
      refine wpAnyH_take (i := 9) (oi := { dst := some 43, op := Op.load 26 (Operand.tmp 42), type := 26, pos := "law.go:49", after := #[{ on := 8, ground := Ground.data }], guard := none }) (v := ?vv24) rfl (by kernel_rfl) (by kernel_rfl) (by kernel_rfl) (fun _ _ _ h => h) (Or.inl ⟨by rfl, ?hy24⟩) (by assumption) ?_
      case hy24 => (intro w hSw; (try dsimp only at hSw); go_simp; all_goals with_reducible rfl)
      try simp only [Act.put, List.setIfInBounds_toArray, List.set_cons_zero, List.set_cons_succ]
      refine wpAnyH_take (i := 10) (oi := { dst := some 44, op := Op.binOp BinOp.neq 26 (Operand.tmp 38) (Operand.tmp 43) 26, type := 4, pos := "law.go:49", after := #[{ on := 4, ground := Ground.data }, { on := 9, ground := Ground.data }], guard := none }) (v := ?vv25) rfl (by kernel_rfl) (by kernel_rfl) (by kernel_rfl) (fun _ _ _ h => h) (Or.inl ⟨by rfl, ?hy25⟩) (by assumption) ?_
      case hy25 => (intro w hSw; (try dsimp only at hSw); go_simp; all_goals with_reducible rfl)
      try simp only [Act.put, List.setIfInBounds_toArray, List.set_cons_zero, List.set_cons_succ]
      refine wpAnyH_take (i := 11) (oi := { dst := some 45, op := Op.move (Operand.tmp 44), type := 4, pos := "law.go:49", after := #[{ on := 10, ground := Ground.data }], guard := none }) (v := ?vv26) rfl (by kernel_rfl) (by kernel_rfl) (by kernel_rfl) (fun _ _ _ h => h) (Or.inl ⟨by rfl, ?hy26⟩) (by assumption) ?_
      case hy26 => (intro w hSw; (try dsimp only at hSw); go_simp; all_goals with_reducible rfl)
      try simp only [Act.put, List.setIfInBounds_toArray, List.set_cons_zero, List.set_cons_succ]
      refine wpAnyH_take (i := 12) (oi := { dst := some 46, op := Op.move (Operand.tmp 0), type := 23, pos := "law.go:49", after := #[{ on := 11, ground := Ground.guard }], guard := some (11, false) }) (v := ?vv27) rfl (by kernel_rfl) (by kernel_rfl) (by kernel_rfl) (fun _ _ _ h => h) (Or.inl ⟨by rfl, ?hy27⟩) (by assumption) ?_
      case hy27 => (intro w hSw; (try dsimp only at hSw); go_simp; all_goals with_reducible rfl)
      try simp only [Act.put, List.setIfInBounds_toArray, List.set_cons_zero, List.set_cons_succ]
      refine wpAnyH_take (i := 13) (oi := { dst := some 47, op := Op.move (Operand.tmp 7), type := 3, pos := "law.go:49", after := #[{ on := 11, ground := Ground.guard }], guard := some (11, false) }) (v := ?vv28) rfl (by kernel_rfl) (by kernel_rfl) (by kernel_rfl) (fun _ _ _ h => h) (Or.inl ⟨by rfl, ?hy28⟩) (by assumption) ?_
      case hy28 => (intro w hSw; (try dsimp only at hSw); go_simp; all_goals with_reducible rfl)
      try simp only [Act.put, List.setIfInBounds_toArray, List.set_cons_zero, List.set_cons_succ]
      refine wpAnyH_take (i := 14) (oi := { dst := some 48, op := Op.indexAddr 23 (Operand.tmp 46) (Operand.tmp 47), type := 0, pos := "law.go:49", after := #[{ on := 12, ground := Ground.data }, { on := 13, ground := Ground.data }, { on := 11, ground := Ground.guard }], guard := some (11, false) }) (v := ?vv29) rfl (by kernel_rfl) (by kernel_rfl) (by kernel_rfl) (fun _ _ _ h => h) (Or.inl ⟨by rfl, ?hy29⟩) (by assumption) ?_
      case hy29 => (intro w hSw; (try dsimp only at hSw); go_simp; all_goals with_reducible rfl)
      try simp only [Act.put, List.setIfInBounds_toArray, List.set_cons_zero, List.set_cons_succ]
      refine wpAnyH_take (i := 15) (oi := { dst := some 49, op := Op.fieldAddr 29 (Operand.tmp 48) 1, type := 0, pos := "law.go:49", after := #[{ on := 14, ground := Ground.data }, { on := 11, ground := Ground.guard }], guard := some (11, false) }) (v := ?vv30) rfl (by kernel_rfl) (by kernel_rfl) (by kernel_rfl) (fun _ _ _ h => h) (Or.inl ⟨by rfl, ?hy30⟩) (by assumption) ?_
      case hy30 => (intro w hSw; (try dsimp only at hSw); go_simp; all_goals with_reducible rfl)
      try simp only [Act.put, List.setIfInBounds_toArray, List.set_cons_zero, List.set_cons_succ]
      refine wpAnyH_take (i := 16) (oi := { dst := some 50, op := Op.load 27 (Operand.tmp 49), type := 27, pos := "law.go:49", after := #[{ on := 15, ground := Ground.data }, { on := 11, ground := Ground.guard }], guard := some (11, false) }) (v := ?vv31) rfl (by kernel_rfl) (by kernel_rfl) (by kernel_rfl) (fun _ _ _ h => h) (Or.inl ⟨by rfl, ?hy31⟩) (by assumption) ?_
      case hy31 => (intro w hSw; (try dsimp only at hSw); go_simp; all_goals with_reducible rfl)
      try simp only [Act.put, List.setIfInBounds_toArray, List.set_cons_zero, List.set_cons_succ]
      refine wpAnyH_take (i := 17) (oi := { dst := some 51, op := Op.move (Operand.tmp 1), type := 23, pos := "law.go:49", after := #[{ on := 11, ground := Ground.guard }], guard := some (11, false) }) (v := ?vv32) rfl (by kernel_rfl) (by kernel_rfl) (by kernel_rfl) (fun _ _ _ h => h) (Or.inl ⟨by rfl, ?hy32⟩) (by assumption) ?_
      case hy32 => (intro w hSw; (try dsimp only at hSw); go_simp; all_goals with_reducible rfl)
      try simp only [Act.put, List.setIfInBounds_toArray, List.set_cons_zero, List.set_cons_succ]
      refine wpAnyH_take (i := 18) (oi := { dst := some 52, op := Op.move (Operand.tmp 7), type := 3, pos := "law.go:49", after := #[{ on := 11, ground := Ground.guard }], guard := some (11, false) }) (v := ?vv33) rfl (by kernel_rfl) (by kernel_rfl) (by kernel_rfl) (fun _ _ _ h => h) (Or.inl ⟨by rfl, ?hy33⟩) (by assumption) ?_
      case hy33 => (intro w hSw; (try dsimp only at hSw); go_simp; all_goals with_reducible rfl)
      try simp only [Act.put, List.setIfInBounds_toArray, List.set_cons_zero, List.set_cons_succ]
      refine wpAnyH_take (i := 19) (oi := { dst := some 53, op := Op.indexAddr 23 (Operand.tmp 51) (Operand.tmp 52), type := 0, pos := "law.go:49", after := #[{ on := 17, ground := Ground.data }, { on := 18, ground := Ground.data }, { on := 11, ground := Ground.guard }], guard := some (11, false) }) (v := ?vv34) rfl (by kernel_rfl) (by kernel_rfl) (by kernel_rfl) (fun _ _ _ h => h) (Or.inl ⟨by rfl, ?hy34⟩) (by assumption) ?_
      case hy34 => (intro w hSw; (try dsimp only at hSw); go_simp; all_goals with_reducible rfl)
      try simp only [Act.put, List.setIfInBounds_toArray, List.set_cons_zero, List.set_cons_succ]
      refine wpAnyH_take (i := 20) (oi := { dst := some 54, op := Op.fieldAddr 29 (Operand.tmp 53) 1, type := 0, pos := "law.go:49", after := #[{ on := 19, ground := Ground.data }, { on := 11, ground := Ground.guard }], guard := some (11, false) }) (v := ?vv35) rfl (by kernel_rfl) (by kernel_rfl) (by kernel_rfl) (fun _ _ _ h => h) (Or.inl ⟨by rfl, ?hy35⟩) (by assumption) ?_
      case hy35 => (intro w hSw; (try dsimp only at hSw); go_simp; all_goals with_reducible rfl)
      try simp only [Act.put, List.setIfInBounds_toArray, List.set_cons_zero, List.set_cons_succ]
      refine wpAnyH_take (i := 21) (oi := { dst := some 55, op := Op.load 27 (Operand.tmp 54), type := 27, pos := "law.go:49", after := #[{ on := 20, ground := Ground.data }, { on := 11, ground := Ground.guard }], guard := some (11, false) }) (v := ?vv36) rfl (by kernel_rfl) (by kernel_rfl) (by kernel_rfl) (fun _ _ _ h => h) (Or.inl ⟨by rfl, ?hy36⟩) (by assumption) ?_
      case hy36 => (intro w hSw; (try dsimp only at hSw); go_simp; all_goals with_reducible rfl)
      try simp only [Act.put, List.setIfInBounds_toArray, List.set_cons_zero, List.set_cons_succ]
      refine wpAnyH_ready (rs := [22]) (by kernel_rfl) (by simp) ?_
      refine AllReadyH.cons (o := { dst := some 56, op := Op.call { callee := Callee.value (Operand.func 13), args := #[Operand.tmp 50, Operand.tmp 55], argTypes := #[27, 27] }, type := 4, pos := "law.go:49", after := #[{ on := 16, ground := Ground.data }, { on := 21, ground := Ground.data }, { on := 11, ground := Ground.chain }, { on := 11, ground := Ground.guard }], guard := some (11, false) }) rfl (fun K hK => ?_) AllReadyH.nil
      go_simp
      refine (HSM.out _ hbQ).mono ?_
      rintro e' Qx ⟨rfl, bX⟩
      have hbQx : Below wr.heap.size wr Qx := hbQ.trans (bX.mono hbQ.size)
      clear bX
      go_wp2_with fail
      refine hK.out _ _ (HCy.out _ hbQx) (fun hHeld => ?_)
      clear hK K
      try simp only [Act.put, List.setIfInBounds_toArray, List.set_cons_zero, List.set_cons_succ]
      refine wpAnyH_take (i := 23) (oi := { dst := some 57, op := Op.unOp UnOp.not 4 (Operand.tmp 56), type := 4, pos := "law.go:49", after := #[{ on := 22, ground := Ground.data }, { on := 11, ground := Ground.guard }], guard := some (11, false) }) (v := ?vv37) rfl (by kernel_rfl) (by kernel_rfl) (by kernel_rfl) (fun _ _ _ h => h) (Or.inl ⟨by rfl, ?hy37⟩) (by assumption) ?_
      case hy37 => (intro w hSw; (try dsimp only at hSw); go_simp; all_goals with_reducible rfl)
      try simp only [Act.put, List.setIfInBounds_toArray, List.set_cons_zero, List.set_cons_succ]
      refine wpAnyH_take (i := 24) (oi := { dst := some 58, op := Op.pick (Operand.tmp 45) (Operand.const (Value.bool true)) (Operand.tmp 57), type := 4, pos := "law.go:49", after := #[{ on := 11, ground := Ground.data }, { on := 23, ground := Ground.data }], guard := none }) (v := ?vv38) rfl (by kernel_rfl) (by kernel_rfl) (by kernel_rfl) (fun _ _ _ h => h) (Or.inl ⟨by rfl, ?hy38⟩) (by assumption) ?_
      case hy38 => (intro w hSw; (try dsimp only at hSw); go_simp; all_goals with_reducible rfl)
      try simp only [Act.put, List.setIfInBounds_toArray, List.set_cons_zero, List.set_cons_succ]
      refine wpAnyH_take (i := 25) (oi := { dst := some 59, op := Op.move (Operand.tmp 58), type := 4, pos := "law.go:49", after := #[{ on := 24, ground := Ground.data }, { on := 22, ground := Ground.chain }], guard := none }) (v := ?vv39) rfl (by kernel_rfl) (by kernel_rfl) (by kernel_rfl) (fun _ _ _ h => h) (Or.inl ⟨by rfl, ?hy39⟩) (by assumption) ?_
      case hy39 => (intro w hSw; (try dsimp only at hSw); go_simp; all_goals with_reducible rfl)
      try simp only [Act.put, List.setIfInBounds_toArray, List.set_cons_zero, List.set_cons_succ]
      refine wpAnyH_take (i := 26) (oi := { dst := some 60, op := Op.move (Operand.tmp 8), type := 27, pos := "law.go:49", after := #[{ on := 25, ground := Ground.guard }], guard := some (25, false) }) (v := ?vv40) rfl (by kernel_rfl) (by kernel_rfl) (by kernel_rfl) (fun _ _ _ h => h) (Or.inl ⟨by rfl, ?hy40⟩) (by assumption) ?_
      case hy40 => (intro w hSw; (try dsimp only at hSw); go_simp; all_goals with_reducible rfl)
      try simp only [Act.put, List.setIfInBounds_toArray, List.set_cons_zero, List.set_cons_succ]
      refine wpAnyH_take (i := 27) (oi := { dst := some 61, op := Op.move (Operand.tmp 1), type := 23, pos := "law.go:49", after := #[{ on := 25, ground := Ground.guard }], guard := some (25, false) }) (v := ?vv41) rfl (by kernel_rfl) (by kernel_rfl) (by kernel_rfl) (fun _ _ _ h => h) (Or.inl ⟨by rfl, ?hy41⟩) (by assumption) ?_
      case hy41 => (intro w hSw; (try dsimp only at hSw); go_simp; all_goals with_reducible rfl)
      try simp only [Act.put, List.setIfInBounds_toArray, List.set_cons_zero, List.set_cons_succ]
      refine wpAnyH_take (i := 28) (oi := { dst := some 62, op := Op.move (Operand.tmp 7), type := 3, pos := "law.go:49", after := #[{ on := 25, ground := Ground.guard }], guard := some (25, false) }) (v := ?vv42) rfl (by kernel_rfl) (by kernel_rfl) (by kernel_rfl) (fun _ _ _ h => h) (Or.inl ⟨by rfl, ?hy42⟩) (by assumption) ?_
      case hy42 => (intro w hSw; (try dsimp only at hSw); go_simp; all_goals with_reducible rfl)
      try simp only [Act.put, List.setIfInBounds_toArray, List.set_cons_zero, List.set_cons_succ]
      refine wpAnyH_take (i := 29) (oi := { dst := some 63, op := Op.indexAddr 23 (Operand.tmp 61) (Operand.tmp 62), type := 0, pos := "law.go:49", after := #[{ on := 27, ground := Ground.data }, { on := 28, ground := Ground.data }, { on := 25, ground := Ground.guard }], guard := some (25, false) }) (v := ?vv43) rfl (by kernel_rfl) (by kernel_rfl) (by kernel_rfl) (fun _ _ _ h => h) (Or.inl ⟨by rfl, ?hy43⟩) (by assumption) ?_
      case hy43 => (intro w hSw; (try dsimp only at hSw); go_simp; all_goals with_reducible rfl)
      try simp only [Act.put, List.setIfInBounds_toArray, List.set_cons_zero, List.set_cons_succ]
      refine wpAnyH_take (i := 30) (oi := { dst := some 64, op := Op.fieldAddr 29 (Operand.tmp 63) 1, type := 0, pos := "law.go:49", after := #[{ on := 29, ground := Ground.data }, { on := 25, ground := Ground.guard }], guard := some (25, false) }) (v := ?vv44) rfl (by kernel_rfl) (by kernel_rfl) (by kernel_rfl) (fun _ _ _ h => h) (Or.inl ⟨by rfl, ?hy44⟩) (by assumption) ?_
      case hy44 => (intro w hSw; (try dsimp only at hSw); go_simp; all_goals with_reducible rfl)
      try simp only [Act.put, List.setIfInBounds_toArray, List.set_cons_zero, List.set_cons_succ]
      refine wpAnyH_take (i := 31) (oi := { dst := some 65, op := Op.load 27 (Operand.tmp 64), type := 27, pos := "law.go:49", after := #[{ on := 30, ground := Ground.data }, { on := 25, ground := Ground.guard }], guard := some (25, false) }) (v := ?vv45) rfl (by kernel_rfl) (by kernel_rfl) (by kernel_rfl) (fun _ _ _ h => h) (Or.inl ⟨by rfl, ?hy45⟩) (by assumption) ?_
      case hy45 => (intro w hSw; (try dsimp only at hSw); go_simp; all_goals with_reducible rfl)
      try simp only [Act.put, List.setIfInBounds_toArray, List.set_cons_zero, List.set_cons_succ]
      refine wpAnyH_take (i := 32) (oi := { dst := some 66, op := Op.call { callee := Callee.builtin Builtin.len, args := #[Operand.tmp 65], argTypes := #[27] }, type := 3, pos := "law.go:49", after := #[{ on := 31, ground := Ground.data }, { on := 25, ground := Ground.guard }], guard := some (25, false) }) (v := ?vv46) rfl (by kernel_rfl) (by kernel_rfl) (by kernel_rfl) (fun _ _ _ h => h) (Or.inl ⟨by rfl, ?hy46⟩) (by assumption) ?_
      case hy46 => (intro w hSw; (try dsimp only at hSw); go_simp; all_goals with_reducible rfl)
      try simp only [Act.put, List.setIfInBounds_toArray, List.set_cons_zero, List.set_cons_succ]
      refine wpAnyH_take (i := 33) (oi := { dst := some 67, op := Op.indexAddr 27 (Operand.tmp 60) (Operand.tmp 66), type := 0, pos := "law.go:49", after := #[{ on := 26, ground := Ground.data }, { on := 32, ground := Ground.data }, { on := 25, ground := Ground.guard }], guard := some (25, false) }) (v := ?vv47) rfl (by kernel_rfl) (by kernel_rfl) (by kernel_rfl) (fun _ _ _ h => h) (Or.inl ⟨by rfl, ?hy47⟩) (by assumption) ?_
      case hy47 => (intro w hSw; (try dsimp only at hSw); go_simp; all_goals with_reducible rfl)
      try simp only [Act.put, List.setIfInBounds_toArray, List.set_cons_zero, List.set_cons_succ]
      refine wpAnyH_take (i := 34) (oi := { dst := some 68, op := Op.load 26 (Operand.tmp 67), type := 26, pos := "law.go:49", after := #[{ on := 33, ground := Ground.data }, { on := 25, ground := Ground.guard }], guard := some (25, false) }) (v := ?vv48) rfl (by kernel_rfl) (by kernel_rfl) (by kernel_rfl) (fun _ _ _ h => h) (Or.inl ⟨by rfl, ?hy48⟩) (by assumption) ?_
      case hy48 => (intro w hSw; (try dsimp only at hSw); go_simp; all_goals with_reducible rfl)
      try simp only [Act.put, List.setIfInBounds_toArray, List.set_cons_zero, List.set_cons_succ]
      refine wpAnyH_take (i := 35) (oi := { dst := some 69, op := Op.load 26 (Operand.tmp 5), type := 26, pos := "law.go:49", after := #[{ on := 25, ground := Ground.guard }], guard := some (25, false) }) (v := ?vv49) rfl (by kernel_rfl) (by kernel_rfl) (by kernel_rfl) (fun _ _ _ h => h) (Or.inl ⟨by rfl, ?hy49⟩) (by assumption) ?_
      case hy49 => (intro w hSw; (try dsimp only at hSw); go_simp; all_goals with_reducible rfl)
      try simp only [Act.put, List.setIfInBounds_toArray, List.set_cons_zero, List.set_cons_succ]
      refine wpAnyH_take (i := 36) (oi := { dst := some 70, op := Op.binOp BinOp.neq 26 (Operand.tmp 68) (Operand.tmp 69) 26, type := 4, pos := "law.go:49", after := #[{ on := 34, ground := Ground.data }, { on := 35, ground := Ground.data }, { on := 25, ground := Ground.guard }], guard := some (25, false) }) (v := ?vv50) rfl (by kernel_rfl) (by kernel_rfl) (by kernel_rfl) (fun _ _ _ h => h) (Or.inl ⟨by rfl, ?hy50⟩) (by assumption) ?_
      case hy50 => (intro w hSw; (try dsimp only at hSw); go_simp; all_goals with_reducible rfl)
      try simp only [Act.put, List.setIfInBounds_toArray, List.set_cons_zero, List.set_cons_succ]
      refine wpAnyH_take (i := 37) (oi := { dst := some 71, op := Op.pick (Operand.tmp 59) (Operand.const (Value.bool true)) (Operand.tmp 70), type := 4, pos := "law.go:49", after := #[{ on := 25, ground := Ground.data }, { on := 36, ground := Ground.data }], guard := none }) (v := ?vv51) rfl (by kernel_rfl) (by kernel_rfl) (by kernel_rfl) (fun _ _ _ h => h) (Or.inl ⟨by rfl, ?hy51⟩) (by assumption) ?_
      case hy51 => (intro w hSw; (try dsimp only at hSw); go_simp; all_goals with_reducible rfl)
      try simp only [Act.put, List.setIfInBounds_toArray, List.set_cons_zero, List.set_cons_succ]
      refine wpAnyH_done (by kernel_rfl) ?_ _
      have HBn : Hid (Below W0.heap.size W0 Qx) := hb.out.trans (hbQx.mono hb.out.size)
      go_wp2_with fail
      go_roundw
      case rel => exact ⟨k + 1, by simp, by omega, HBn.out⟩
      case measure => simp [intOf] <;> omega
    · obtain rfl : k = n := by omega
      have l1 : ¬ (k : Int) < (k : Int) := by omega
      have l7 : (k : Int) < (n1 : Int) := by have := HN1.out; omega
      have l8 : k < n1 := by have := HN1.out; omega
      have hq1 := eql_self ⟨#[109, 97, 114, 107]⟩ ⟨#[]⟩
      have HCy : Hid (∀ V, Below wr.heap.size wr V → (V.cell? ⟨B0, o0 + k * 3, none⟩ = some (.string ⟨#[109, 97, 114, 107]⟩) ∧ V.cell? ⟨B0, o0 + k * 3 + 1, none⟩ = some (.string ⟨#[]⟩) ∧ V.cell? ⟨B0, o0 + k * 3 + 2, none⟩ = some (.slice none 0 0)) ∧ V.cell? ⟨q, 0, none⟩ = some (.string ⟨#[109, 97, 114, 107]⟩) ∧ V.cell? ⟨q, 1, none⟩ = some (.string ⟨#[]⟩)) := fun V hV => ⟨HMN.out V (HBw.out V hV), HQC.out V (hb.out.trans (hV.mono hb.out.size))⟩
      go_wp2_with fail
      have hbW : Below wr.heap.size wr wr.drew := (Below.refl wr.heap.size wr).drew
      refine wp_region_held_drew (S := (fun V => (V.cell? ⟨B0, o0 + k * 3, none⟩ = some (.string ⟨#[109, 97, 114, 107]⟩) ∧ V.cell? ⟨B0, o0 + k * 3 + 1, none⟩ = some (.string ⟨#[]⟩) ∧ V.cell? ⟨B0, o0 + k * 3 + 2, none⟩ = some (.slice none 0 0)) ∧ V.cell? ⟨q, 0, none⟩ = some (.string ⟨#[109, 97, 114, 107]⟩) ∧ V.cell? ⟨q, 1, none⟩ = some (.string ⟨#[]⟩))) (by kernel_rfl) (HCy.out _ hbW) (fun hHeld => ?_)
      generalize hWg : World.drew _ = W at hbW hHeld ⊢
      clear hWg
      refine wpAnyH_take (i := 0) (oi := { dst := some 72, op := Op.move (Operand.tmp 6), type := 23, pos := "law.go:53", after := #[], guard := none }) (v := ?vv52) rfl (by kernel_rfl) (by kernel_rfl) (by kernel_rfl) (fun _ _ _ h => h) (Or.inl ⟨by rfl, ?hy52⟩) (by assumption) ?_
      case hy52 => (intro w hSw; (try dsimp only at hSw); go_simp; all_goals with_reducible rfl)
      try simp only [Act.put, List.setIfInBounds_toArray, List.set_cons_zero, List.set_cons_succ]
      refine wpAnyH_take (i := 1) (oi := { dst := some 73, op := Op.move (Operand.tmp 1), type := 23, pos := "law.go:53", after := #[], guard := none }) (v := ?vv53) rfl (by kernel_rfl) (by kernel_rfl) (by kernel_rfl) (fun _ _ _ h => h) (Or.inl ⟨by rfl, ?hy53⟩) (by assumption) ?_
      case hy53 => (intro w hSw; (try dsimp only at hSw); go_simp; all_goals with_reducible rfl)
      try simp only [Act.put, List.setIfInBounds_toArray, List.set_cons_zero, List.set_cons_succ]
      refine wpAnyH_take (i := 2) (oi := { dst := some 74, op := Op.call { callee := Callee.builtin Builtin.len, args := #[Operand.tmp 73], argTypes := #[23] }, type := 3, pos := "law.go:53", after := #[{ on := 1, ground := Ground.data }], guard := none }) (v := ?vv54) rfl (by kernel_rfl) (by kernel_rfl) (by kernel_rfl) (fun _ _ _ h => h) (Or.inl ⟨by rfl, ?hy54⟩) (by assumption) ?_
      case hy54 => (intro w hSw; (try dsimp only at hSw); go_simp; all_goals with_reducible rfl)
      try simp only [Act.put, List.setIfInBounds_toArray, List.set_cons_zero, List.set_cons_succ]
      refine wpAnyH_take (i := 3) (oi := { dst := some 75, op := Op.indexAddr 23 (Operand.tmp 72) (Operand.tmp 74), type := 0, pos := "law.go:53", after := #[{ on := 0, ground := Ground.data }, { on := 2, ground := Ground.data }], guard := none }) (v := ?vv55) rfl (by kernel_rfl) (by kernel_rfl) (by kernel_rfl) (fun _ _ _ h => h) (Or.inl ⟨by rfl, ?hy55⟩) (by assumption) ?_
      case hy55 => (intro w hSw; (try dsimp only at hSw); go_simp; all_goals with_reducible rfl)
      try simp only [Act.put, List.setIfInBounds_toArray, List.set_cons_zero, List.set_cons_succ]
      refine wpAnyH_take (i := 4) (oi := { dst := some 76, op := Op.fieldAddr 29 (Operand.tmp 75) 0, type := 0, pos := "law.go:53", after := #[{ on := 3, ground := Ground.data }], guard := none }) (v := ?vv56) rfl (by kernel_rfl) (by kernel_rfl) (by kernel_rfl) (fun _ _ _ h => h) (Or.inl ⟨by rfl, ?hy56⟩) (by assumption) ?_
      case hy56 => (intro w hSw; (try dsimp only at hSw); go_simp; all_goals with_reducible rfl)
      try simp only [Act.put, List.setIfInBounds_toArray, List.set_cons_zero, List.set_cons_succ]
      refine wpAnyH_take (i := 5) (oi := { dst := some 77, op := Op.load 26 (Operand.tmp 76), type := 26, pos := "law.go:53", after := #[{ on := 4, ground := Ground.data }], guard := none }) (v := ?vv57) rfl (by kernel_rfl) (by kernel_rfl) (by kernel_rfl) (fun _ _ _ h => h) (Or.inl ⟨by rfl, ?hy57⟩) (by assumption) ?_
      case hy57 => (intro w hSw; (try dsimp only at hSw); go_simp; all_goals with_reducible rfl)
      try simp only [Act.put, List.setIfInBounds_toArray, List.set_cons_zero, List.set_cons_succ]
      refine wpAnyH_take (i := 6) (oi := { dst := some 78, op := Op.load 26 (Operand.tmp 5), type := 26, pos := "law.go:53", after := #[], guard := none }) (v := ?vv58) rfl (by kernel_rfl) (by kernel_rfl) (by kernel_rfl) (fun _ _ _ h => h) (Or.inl ⟨by rfl, ?hy58⟩) (by assumption) ?_
      case hy58 => (intro w hSw; (try dsimp only at hSw); go_simp; all_goals with_reducible rfl)
      try simp only [Act.put, List.setIfInBounds_toArray, List.set_cons_zero, List.set_cons_succ]
      refine wpAnyH_take (i := 7) (oi := { dst := some 79, op := Op.binOp BinOp.eql 26 (Operand.tmp 77) (Operand.tmp 78) 26, type := 4, pos := "law.go:53", after := #[{ on := 5, ground := Ground.data }, { on := 6, ground := Ground.data }], guard := none }) (v := ?vv59) rfl (by kernel_rfl) (by kernel_rfl) (by kernel_rfl) (fun _ _ _ h => h) (Or.inl ⟨by rfl, ?hy59⟩) (by assumption) ?_
      case hy59 => (intro w hSw; (try dsimp only at hSw); go_simp; all_goals with_reducible rfl)
      try simp only [Act.put, List.setIfInBounds_toArray, List.set_cons_zero, List.set_cons_succ]
      refine wpAnyH_take (i := 8) (oi := { dst := some 80, op := Op.move (Operand.tmp 79), type := 4, pos := "law.go:53", after := #[{ on := 7, ground := Ground.data }], guard := none }) (v := ?vv60) rfl (by kernel_rfl) (by kernel_rfl) (by kernel_rfl) (fun _ _ _ h => h) (Or.inl ⟨by rfl, ?hy60⟩) (by assumption) ?_
      case hy60 => (intro w hSw; (try dsimp only at hSw); go_simp; all_goals with_reducible rfl)
      try simp only [Act.put, List.setIfInBounds_toArray, List.set_cons_zero, List.set_cons_succ]
      refine wpAnyH_take (i := 9) (oi := { dst := some 81, op := Op.move (Operand.tmp 6), type := 23, pos := "law.go:53", after := #[{ on := 8, ground := Ground.guard }], guard := some (8, true) }) (v := ?vv61) rfl (by kernel_rfl) (by kernel_rfl) (by kernel_rfl) (fun _ _ _ h => h) (Or.inl ⟨by rfl, ?hy61⟩) (by assumption) ?_
      case hy61 => (intro w hSw; (try dsimp only at hSw); go_simp; all_goals with_reducible rfl)
      try simp only [Act.put, List.setIfInBounds_toArray, List.set_cons_zero, List.set_cons_succ]
      refine wpAnyH_take (i := 10) (oi := { dst := some 82, op := Op.move (Operand.tmp 1), type := 23, pos := "law.go:53", after := #[{ on := 8, ground := Ground.guard }], guard := some (8, true) }) (v := ?vv62) rfl (by kernel_rfl) (by kernel_rfl) (by kernel_rfl) (fun _ _ _ h => h) (Or.inl ⟨by rfl, ?hy62⟩) (by assumption) ?_
      case hy62 => (intro w hSw; (try dsimp only at hSw); go_simp; all_goals with_reducible rfl)
      try simp only [Act.put, List.setIfInBounds_toArray, List.set_cons_zero, List.set_cons_succ]
      refine wpAnyH_take (i := 11) (oi := { dst := some 83, op := Op.call { callee := Callee.builtin Builtin.len, args := #[Operand.tmp 82], argTypes := #[23] }, type := 3, pos := "law.go:53", after := #[{ on := 10, ground := Ground.data }, { on := 8, ground := Ground.guard }], guard := some (8, true) }) (v := ?vv63) rfl (by kernel_rfl) (by kernel_rfl) (by kernel_rfl) (fun _ _ _ h => h) (Or.inl ⟨by rfl, ?hy63⟩) (by assumption) ?_
      case hy63 => (intro w hSw; (try dsimp only at hSw); go_simp; all_goals with_reducible rfl)
      try simp only [Act.put, List.setIfInBounds_toArray, List.set_cons_zero, List.set_cons_succ]
      refine wpAnyH_take (i := 12) (oi := { dst := some 84, op := Op.indexAddr 23 (Operand.tmp 81) (Operand.tmp 83), type := 0, pos := "law.go:53", after := #[{ on := 9, ground := Ground.data }, { on := 11, ground := Ground.data }, { on := 8, ground := Ground.guard }], guard := some (8, true) }) (v := ?vv64) rfl (by kernel_rfl) (by kernel_rfl) (by kernel_rfl) (fun _ _ _ h => h) (Or.inl ⟨by rfl, ?hy64⟩) (by assumption) ?_
      case hy64 => (intro w hSw; (try dsimp only at hSw); go_simp; all_goals with_reducible rfl)
      try simp only [Act.put, List.setIfInBounds_toArray, List.set_cons_zero, List.set_cons_succ]
      refine wpAnyH_take (i := 13) (oi := { dst := some 85, op := Op.fieldAddr 29 (Operand.tmp 84) 1, type := 0, pos := "law.go:53", after := #[{ on := 12, ground := Ground.data }, { on := 8, ground := Ground.guard }], guard := some (8, true) }) (v := ?vv65) rfl (by kernel_rfl) (by kernel_rfl) (by kernel_rfl) (fun _ _ _ h => h) (Or.inl ⟨by rfl, ?hy65⟩) (by assumption) ?_
      case hy65 => (intro w hSw; (try dsimp only at hSw); go_simp; all_goals with_reducible rfl)
      try simp only [Act.put, List.setIfInBounds_toArray, List.set_cons_zero, List.set_cons_succ]
      refine wpAnyH_take (i := 14) (oi := { dst := some 86, op := Op.load 27 (Operand.tmp 85), type := 27, pos := "law.go:53", after := #[{ on := 13, ground := Ground.data }, { on := 8, ground := Ground.guard }], guard := some (8, true) }) (v := ?vv66) rfl (by kernel_rfl) (by kernel_rfl) (by kernel_rfl) (fun _ _ _ h => h) (Or.inl ⟨by rfl, ?hy66⟩) (by assumption) ?_
      case hy66 => (intro w hSw; (try dsimp only at hSw); go_simp; all_goals with_reducible rfl)
      try simp only [Act.put, List.setIfInBounds_toArray, List.set_cons_zero, List.set_cons_succ]
      refine wpAnyH_take (i := 15) (oi := { dst := some 87, op := Op.call { callee := Callee.builtin Builtin.len, args := #[Operand.tmp 86], argTypes := #[27] }, type := 3, pos := "law.go:53", after := #[{ on := 14, ground := Ground.data }, { on := 8, ground := Ground.guard }], guard := some (8, true) }) (v := ?vv67) rfl (by kernel_rfl) (by kernel_rfl) (by kernel_rfl) (fun _ _ _ h => h) (Or.inl ⟨by rfl, ?hy67⟩) (by assumption) ?_
      case hy67 => (intro w hSw; (try dsimp only at hSw); go_simp; all_goals with_reducible rfl)
      try simp only [Act.put, List.setIfInBounds_toArray, List.set_cons_zero, List.set_cons_succ]
      refine wpAnyH_take (i := 16) (oi := { dst := some 88, op := Op.binOp BinOp.eql 3 (Operand.tmp 87) (Operand.const (Value.int IntKind.i64 0)) 3, type := 4, pos := "law.go:53", after := #[{ on := 15, ground := Ground.data }, { on := 8, ground := Ground.guard }], guard := some (8, true) }) (v := ?vv68) rfl (by kernel_rfl) (by kernel_rfl) (by kernel_rfl) (fun _ _ _ h => h) (Or.inl ⟨by rfl, ?hy68⟩) (by assumption) ?_
      case hy68 => (intro w hSw; (try dsimp only at hSw); go_simp; all_goals with_reducible rfl)
      try simp only [Act.put, List.setIfInBounds_toArray, List.set_cons_zero, List.set_cons_succ]
      refine wpAnyH_take (i := 17) (oi := { dst := some 89, op := Op.pick (Operand.tmp 80) (Operand.tmp 88) (Operand.const (Value.bool false)), type := 4, pos := "law.go:53", after := #[{ on := 8, ground := Ground.data }, { on := 16, ground := Ground.data }], guard := none }) (v := ?vv69) rfl (by kernel_rfl) (by kernel_rfl) (by kernel_rfl) (fun _ _ _ h => h) (Or.inl ⟨by rfl, ?hy69⟩) (by assumption) ?_
      case hy69 => (intro w hSw; (try dsimp only at hSw); go_simp; all_goals with_reducible rfl)
      try simp only [Act.put, List.setIfInBounds_toArray, List.set_cons_zero, List.set_cons_succ]
      refine wpAnyH_take (i := 18) (oi := { dst := some 4, op := Op.assign (Operand.tmp 89), type := 4, pos := "law.go:53", after := #[{ on := 17, ground := Ground.data }, { on := 8, ground := Ground.chain }, { on := 0, ground := Ground.phase }, { on := 1, ground := Ground.phase }, { on := 2, ground := Ground.phase }, { on := 3, ground := Ground.phase }, { on := 4, ground := Ground.phase }, { on := 5, ground := Ground.phase }, { on := 6, ground := Ground.phase }, { on := 7, ground := Ground.phase }, { on := 8, ground := Ground.phase }, { on := 9, ground := Ground.phase }, { on := 10, ground := Ground.phase }, { on := 11, ground := Ground.phase }, { on := 12, ground := Ground.phase }, { on := 13, ground := Ground.phase }, { on := 14, ground := Ground.phase }, { on := 15, ground := Ground.phase }, { on := 16, ground := Ground.phase }, { on := 17, ground := Ground.phase }], guard := none }) (v := ?vv70) rfl (by kernel_rfl) (by kernel_rfl) (by kernel_rfl) (fun _ _ _ h => h) (Or.inl ⟨by rfl, ?hy70⟩) (by assumption) ?_
      case hy70 => (intro w hSw; (try dsimp only at hSw); go_simp; all_goals with_reducible rfl)
      try simp only [Act.put, List.setIfInBounds_toArray, List.set_cons_zero, List.set_cons_succ]
      refine wpAnyH_done (by kernel_rfl) ?_ _
      have HBn : Hid (Below w.heap.size w W) := HBw.out _ hbW
      go_wp2_with fail
      go_ret
      exact ⟨rfl, HBn.out⟩
end Go.Proofs.Ytldnibkgdpeocaa
