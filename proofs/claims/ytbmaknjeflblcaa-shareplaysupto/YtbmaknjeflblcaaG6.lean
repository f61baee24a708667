/- SharePlays. -/
import Derived.Test.YtbmaknjeflblcaaG4
import Derived.Test.YtbmaknjeflblcaaG5
import Derived.Test.YtbmaknjeflblcaaD5
import Derived.Test.YtbmaknjeflblcaaB1
namespace Go.Proofs.Ytbmaknjeflblcaa
open Go.RowKit Go.Maps
set_option linter.unusedVariables false
set_option linter.unusedSimpArgs false

theorem new_s (w : World) : Calls Try.prog 12 #[] w fun e w' => ∃ p, e = .returned (.pointer (some ⟨p, 0, none⟩)) ∧ Sh w' (fun k => w.heap.size ≤ k ∧ k < w'.heap.size) p St.new ∧ Below w.heap.size w w' :=
  (new_any w).mono fun e w' h => ⟨_, h.1, h.2.1, h.2.2⟩
theorem rnew_s (w : World) : Calls Try.prog 20 #[] w fun e w' => ∃ p, e = .returned (.pointer (some ⟨p, 0, none⟩)) ∧ Rb w' (fun k => w.heap.size ≤ k ∧ k < w'.heap.size) p [] ∧ Below w.heap.size w w' :=
  (rnew_any w (fun k => k < w.heap.size ∧ ¬ False) fun k hk => hk.1).mono fun e w' h => by
    obtain ⟨p, h1, h2, h3⟩ := h
    refine ⟨p, h1, (Rb.of_rn (B := fun _ => False) h2).mono fun k hk => ?_, h3⟩
    rcases hk with hk | hk
    · exact hk.elim
    · exact hk
set_option maxRecDepth 100000 in
set_option maxHeartbeats 16000000 in
theorem sharePlays_any (v : SV) (l : List Op) (w : World) (hI : In EO w (sv v) l) (B : Nat) (hBB : B ≤ 1048576) (hZ : ∀ q ∈ l, OpZ w B q) (ht : totO l ≤ 1048576) (hn : l.length ≤ 1048576) :
    Calls Try.prog 7 #[sv v] w fun e w' => e = .returned (.bool true) ∧ Below w.heap.size w w' := by
  obtain ⟨vb, vn, vc⟩ := v
  unfold sv at hI ⊢
  simp only at hI ⊢
  obtain ⟨hvl, hc1, hc2⟩ := slice_len hI
  have HI : Hid (In EO w (.slice vb vn vc) l) := hI
  have HZ : Hid (∀ q ∈ l, OpZ w B q) := hZ
  have HT : Hid (∀ k, totO (l.take k) ≤ 1048576) := fun k => Nat.le_trans (totO_le l k) ht
  have HL : Hid (vn = l.length) := hvl
  rw [← hvl] at hc1 hn
  clear hI hZ ht hvl
  go_enter Try.func7, Try.ntmps7
  go_wp2_with fail
  refine (first_any w).mono ?_
  rintro e w1 ⟨rfl, hB1⟩
  go_wp2_with fail
  refine (new_s w1).mono ?_
  rintro e w2 ⟨p0, rfl, s0, hB2⟩
  go_wp2_with fail
  refine (new_s w2).mono ?_
  rintro e w3 ⟨p1, rfl, s1, hB3⟩
  obtain ⟨w4, hw4⟩ : ∃ w4, w4 = w3.alloc (Obj.cells #[.pointer (some ⟨p0, 0, none⟩), .pointer (some ⟨p1, 0, none⟩)] 52) := ⟨_, rfl⟩
  go_wp2_with fail
  rw [← hw4]
  refine (rnew_s w4).mono ?_
  rintro e w5 ⟨q0, rfl, r0, hB5⟩
  go_wp2_with fail
  refine (rnew_s w5).mono ?_
  rintro e w6 ⟨q1, rfl, r1, hB6⟩
  have b4 : Below w3.heap.size w3 w4 := by rw [hw4]; exact bel1 _ _
  have z4 : w4.heap.size = w3.heap.size + 1 := by rw [hw4]; simp
  have z1 := hB1.size
  have z2 := hB2.size
  have z3 := hB3.size
  have z5 := hB5.size
  have z6 := hB6.size
  have ha4 : w4.heap[w3.heap.size]? = some (.cells #[.pointer (some ⟨p0, 0, none⟩), .pointer (some ⟨p1, 0, none⟩)] 52 (0, 0)) := by rw [hw4]; exact heap_alloc_new _ _
  have ha6 : w6.heap[w3.heap.size]? = some (.cells #[.pointer (some ⟨p0, 0, none⟩), .pointer (some ⟨p1, 0, none⟩)] 52 (0, 0)) := (hB6.block _ (by omega)).trans ((hB5.block _ (by omega)).trans ha4)
  have b7 := bel1 w6 (Obj.cells #[.pointer (some ⟨q0, 0, none⟩), .pointer (some ⟨q1, 0, none⟩)] 55)
  have hst : Hid (∃ C0 C1 T0 T1 L0 L1, Tw w (w6.alloc (Obj.cells #[.pointer (some ⟨q0, 0, none⟩), .pointer (some ⟨q1, 0, none⟩)] 55)) C0 C1 p0 q0 p1 q1 w3.heap.size w6.heap.size T0 T1 L0 L1 (totO (l.take 0)) 0) := by
    have s0' := ((((s0.below hB3).below b4).below hB5).below hB6).below b7
    have s1' := (((s1.below b4).below hB5).below hB6).below b7
    have r0' := (r0.stays (w' := w6) fun k hk _ => hB6.block k hk).stays (w' := w6.alloc (Obj.cells #[.pointer (some ⟨q0, 0, none⟩), .pointer (some ⟨q1, 0, none⟩)] 55)) fun k hk _ => b7.block k hk
    have r1' := r1.stays (w' := w6.alloc (Obj.cells #[.pointer (some ⟨q0, 0, none⟩), .pointer (some ⟨q1, 0, none⟩)] 55)) fun k hk _ => b7.block k hk
    have P0 : Pr (w6.alloc (Obj.cells #[.pointer (some ⟨q0, 0, none⟩), .pointer (some ⟨q1, 0, none⟩)] 55)) (fun k => (w1.heap.size ≤ k ∧ k < w2.heap.size) ∨ (w4.heap.size ≤ k ∧ k < w5.heap.size)) p0 q0 St.new [] (totO (l.take 0)) 0 := ⟨⟨_, _, s0', r0', (by intro k h1 h2; omega), (fun k h1 => .inl h1), (fun k h1 => .inr h1)⟩, (by intro k h1; simp; omega), Rl.new, (by intro j; rw [new_b]; simp), (by simp)⟩
    have P1 : Pr (w6.alloc (Obj.cells #[.pointer (some ⟨q0, 0, none⟩), .pointer (some ⟨q1, 0, none⟩)] 55)) (fun k => (w2.heap.size ≤ k ∧ k < w3.heap.size) ∨ (w5.heap.size ≤ k ∧ k < w6.heap.size)) p1 q1 St.new [] (totO (l.take 0)) 0 := ⟨⟨_, _, s1', r1', (by intro k h1 h2; omega), (fun k h1 => .inl h1), (fun k h1 => .inr h1)⟩, (by intro k h1; simp; omega), Rl.new, (by intro j; rw [new_b]; simp), (by simp)⟩
    have LW : Below w.heap.size w (w6.alloc (Obj.cells #[.pointer (some ⟨q0, 0, none⟩), .pointer (some ⟨q1, 0, none⟩)] 55)) := ((((hB1.trans (hB2.mono z1)).trans (hB3.mono (by omega))).trans (b4.mono (by omega))).trans (hB5.mono (by omega))).trans ((hB6.mono (by omega)).trans (b7.mono (by omega)))
    exact ⟨_, _, _, _, _, _, P0, P1, (by intro k h1 h2; omega), ⟨(by intro k h1; omega), (by intro k h1; omega)⟩, (b7.block _ (by omega)).trans ha6, heap_alloc_new _ _, ⟨⟨(by intro h1; omega), (by intro h1; omega)⟩, (by intro h1; omega), (by intro h1; omega)⟩, LW⟩
  have c70 := cell_blk ha6 0
  have c71 := cell_blk ha6 1
  have c7l := heap_lt ha6
  clear s0 s1 r0 r1 ha4 ha6 hw4 b4 hB1 hB2 hB3 hB5 hB6 z1 z2 z3 z4 z5 z6 b7
  generalize w3.heap.size = ga at *
  go_wp2_with fail
  go_loopw [5, 6] (fun kv _ wr => ∃ k : Nat, kv = .int .i64 (k : Int) ∧ k ≤ vn ∧ Hid (∃ C0 C1 T0 T1 L0 L1, Tw w wr C0 C1 p0 q0 p1 q1 ga w6.heap.size T0 T1 L0 L1 (totO (l.take k)) k)) (fun kv _ _ => vn - (intOf kv).toNat)
  case atStart => exact ⟨0, rfl, by omega, hst⟩
  case round =>
    obtain ⟨k, hkv, hk, hh⟩ := hrel
    subst hkv
    obtain ⟨C0, C1, T0, T1, L0, L1, htw⟩ := hh.out
    clear hh hst
    by_cases hlt : k < vn
    · have hkl : k < l.length := by have := HL.out; omega
      have l1 : (k : Int) < (vn : Int) := by omega
      have kz : ¬ (k : Int) < 0 := by omega
      obtain ⟨Bk, off, cap, e, hc⟩ := HI.out.op k hkl
      injection e with e1 e2 e3
      subst e1
      clear e2 e3
      have HCC : Hid _ := hc
      obtain ⟨d0, d1, d2, d3, d4, d5, d6, d7, d8⟩ := hc wr htw.lw
      have htot := totO_succ l k hkl
      have hto := HT.out (k + 1)
      have hqz := HZ.out l[k] (List.getElem_mem hkl)
      obtain ⟨q, hq⟩ : ∃ q, l[k] = q := ⟨_, rfl⟩
      rw [hq] at d0 d1 d2 d3 d4 d5 d6 d7 d8 htot hqz HCC
      clear hq hc
      obtain ⟨ok, os, oid, ot, oe, oc, ost, of, ⟨y1, y2, y3⟩, ol⟩ := q
      have HQZ : Hid (OpZ w B ⟨ok, os, oid, ot, oe, oc, ost, of, (y1, y2, y3), ol⟩) := hqz
      simp only [sv] at d0 d1 d2 d3 d4 d5 d6 d7 d8 htot HCC
      have HTO : Hid (totO (l.take (k + 1)) = totO (l.take k) + ot.size ∧ totO (l.take (k + 1)) ≤ 1048576) := ⟨htot, hto⟩
      have HTW : Hid (Tw w wr C0 C1 p0 q0 p1 q1 ga w6.heap.size T0 T1 L0 L1 (totO (l.take k)) k) := htw
      clear htw hqz htot hto
      have hor : os % 2 = 0 ∨ os % 2 = 1 := by omega
      rcases hor with hr | hr
      · have hand : bits .and .i64 os 1 = 0 := by rw [and1]; exact hr
        clear hr
        go_wp2_with fail
        have aW : Hid (Tw w wr.drew C0 C1 p0 q0 p1 q1 ga w6.heap.size T0 T1 L0 L1 (totO (l.take k)) k) := HTW.out.below ⟨rfl, rfl, rfl, Nat.le_refl _, fun _ _ => rfl⟩
        refine wp_region_held_drew (S := (fun W => (W.cell? ⟨ga, 0, none⟩ = some (.pointer (some ⟨p0, 0, none⟩)) ∧ W.cell? ⟨w6.heap.size, 0, none⟩ = some (.pointer (some ⟨q0, 0, none⟩))) ∧ W.cell? ⟨Bk, off + k * 9, none⟩ = some (.int .i64 ok) ∧ W.cell? ⟨Bk, off + k * 9 + 1, none⟩ = some (.int .i64 os) ∧ W.cell? ⟨Bk, off + k * 9 + 2, none⟩ = some (.int .i64 oid) ∧ W.cell? ⟨Bk, off + k * 9 + 3, none⟩ = some (.string ot) ∧ W.cell? ⟨Bk, off + k * 9 + 4, none⟩ = some (.bool oe) ∧ W.cell? ⟨Bk, off + k * 9 + 5, none⟩ = some (.int .i64 oc) ∧ W.cell? ⟨Bk, off + k * 9 + 6, none⟩ = some (.int .i64 ost) ∧ W.cell? ⟨Bk, off + k * 9 + 7, none⟩ = some (.int .i64 of) ∧ W.cell? ⟨Bk, off + k * 9 + 8, none⟩ = some (.slice y1 y2 y3))) (by kernel_rfl) ⟨⟨cell_blk aW.out.ra 0, cell_blk aW.out.rb 0⟩, d0, d1, d2, d3, d4, d5, d6, d7, d8⟩ (fun hHeld => ?_)
        clear d0 d1 d2 d3 d4 d5 d6 d7 d8
        generalize hWg : World.drew _ = W at aW hHeld ⊢
        clear hWg
        refine wpAnyH_take (i := 0) (oi := { dst := some 37, op := Op.move (Operand.tmp 6), type := 3, pos := "law.go:117", after := #[], guard := none }) (v := ?vv1) rfl (by kernel_rfl) (by kernel_rfl) (by kernel_rfl) (fun _ _ _ h => h) (Or.inl ⟨by rfl, ?hy1⟩) (by assumption) ?_
        case hy1 => (intro w hSw; (try dsimp only at hSw); go_simp; all_goals with_reducible rfl)
        try simp only [Act.put, List.setIfInBounds_toArray, List.set_cons_zero, List.set_cons_succ]
        refine wpAnyH_take (i := 1) (oi := { dst := some 38, op := Op.indexAddr 52 (Operand.tmp 3) (Operand.tmp 37), type := 0, pos := "law.go:117", after := #[{ on := 0, ground := Ground.data }], guard := none }) (v := ?vv2) rfl (by kernel_rfl) (by kernel_rfl) (by kernel_rfl) (fun _ _ _ h => h) (Or.inl ⟨by rfl, ?hy2⟩) (by assumption) ?_
        case hy2 => (intro w hSw; (try dsimp only at hSw); go_simp; all_goals with_reducible rfl)
        try simp only [Act.put, List.setIfInBounds_toArray, List.set_cons_zero, List.set_cons_succ]
        refine wpAnyH_take (i := 2) (oi := { dst := some 39, op := Op.load 28 (Operand.tmp 38), type := 28, pos := "law.go:117", after := #[{ on := 1, ground := Ground.data }], guard := none }) (v := ?vv3) rfl (by kernel_rfl) (by kernel_rfl) (by kernel_rfl) (fun _ _ _ h => h) (Or.inl ⟨by rfl, ?hy3⟩) (by assumption) ?_
        case hy3 => (intro w hSw; (try dsimp only at hSw); go_simp; all_goals with_reducible rfl)
        try simp only [Act.put, List.setIfInBounds_toArray, List.set_cons_zero, List.set_cons_succ]
        refine wpAnyH_take (i := 3) (oi := { dst := some 40, op := Op.move (Operand.tmp 6), type := 3, pos := "law.go:117", after := #[], guard := none }) (v := ?vv4) rfl (by kernel_rfl) (by kernel_rfl) (by kernel_rfl) (fun _ _ _ h => h) (Or.inl ⟨by rfl, ?hy4⟩) (by assumption) ?_
        case hy4 => (intro w hSw; (try dsimp only at hSw); go_simp; all_goals with_reducible rfl)
        try simp only [Act.put, List.setIfInBounds_toArray, List.set_cons_zero, List.set_cons_succ]
        refine wpAnyH_take (i := 4) (oi := { dst := some 41, op := Op.indexAddr 55 (Operand.tmp 4) (Operand.tmp 40), type := 0, pos := "law.go:117", after := #[{ on := 3, ground := Ground.data }], guard := none }) (v := ?vv5) rfl (by kernel_rfl) (by kernel_rfl) (by kernel_rfl) (fun _ _ _ h => h) (Or.inl ⟨by rfl, ?hy5⟩) (by assumption) ?_
        case hy5 => (intro w hSw; (try dsimp only at hSw); go_simp; all_goals with_reducible rfl)
        try simp only [Act.put, List.setIfInBounds_toArray, List.set_cons_zero, List.set_cons_succ]
        refine wpAnyH_take (i := 5) (oi := { dst := some 42, op := Op.load 53 (Operand.tmp 41), type := 53, pos := "law.go:117", after := #[{ on := 4, ground := Ground.data }], guard := none }) (v := ?vv6) rfl (by kernel_rfl) (by kernel_rfl) (by kernel_rfl) (fun _ _ _ h => h) (Or.inl ⟨by rfl, ?hy6⟩) (by assumption) ?_
        case hy6 => (intro w hSw; (try dsimp only at hSw); go_simp; all_goals with_reducible rfl)
        try simp only [Act.put, List.setIfInBounds_toArray, List.set_cons_zero, List.set_cons_succ]
        refine wpAnyH_take (i := 6) (oi := { dst := some 43, op := Op.move (Operand.tmp 0), type := 38, pos := "law.go:117", after := #[], guard := none }) (v := ?vv7) rfl (by kernel_rfl) (by kernel_rfl) (by kernel_rfl) (fun _ _ _ h => h) (Or.inl ⟨by rfl, ?hy7⟩) (by assumption) ?_
        case hy7 => (intro w hSw; (try dsimp only at hSw); go_simp; all_goals with_reducible rfl)
        try simp only [Act.put, List.setIfInBounds_toArray, List.set_cons_zero, List.set_cons_succ]
        refine wpAnyH_take (i := 7) (oi := { dst := some 44, op := Op.move (Operand.tmp 5), type := 3, pos := "law.go:117", after := #[], guard := none }) (v := ?vv8) rfl (by kernel_rfl) (by kernel_rfl) (by kernel_rfl) (fun _ _ _ h => h) (Or.inl ⟨by rfl, ?hy8⟩) (by assumption) ?_
        case hy8 => (intro w hSw; (try dsimp only at hSw); go_simp; all_goals with_reducible rfl)
        try simp only [Act.put, List.setIfInBounds_toArray, List.set_cons_zero, List.set_cons_succ]
        refine wpAnyH_take (i := 8) (oi := { dst := some 45, op := Op.indexAddr 38 (Operand.tmp 43) (Operand.tmp 44), type := 0, pos := "law.go:117", after := #[{ on := 6, ground := Ground.data }, { on := 7, ground := Ground.data }], guard := none }) (v := ?vv9) rfl (by kernel_rfl) (by kernel_rfl) (by kernel_rfl) (fun _ _ _ h => h) (Or.inl ⟨by rfl, ?hy9⟩) (by assumption) ?_
        case hy9 => (intro w hSw; (try dsimp only at hSw); go_simp; all_goals with_reducible rfl)
        try simp only [Act.put, List.setIfInBounds_toArray, List.set_cons_zero, List.set_cons_succ]
        refine wpAnyH_take (i := 9) (oi := { dst := some 46, op := Op.load 41 (Operand.tmp 45), type := 41, pos := "law.go:117", after := #[{ on := 8, ground := Ground.data }], guard := none }) (v := ?vv10) rfl (by kernel_rfl) (by kernel_rfl) (by kernel_rfl) (fun _ _ _ h => h) (Or.inl ⟨by rfl, ?hy10⟩) (by assumption) ?_
        case hy10 => (intro w hSw; (try dsimp only at hSw); go_simp; all_goals with_reducible rfl)
        try simp only [Act.put, List.setIfInBounds_toArray, List.set_cons_zero, List.set_cons_succ]
        refine wpAnyH_ready (rs := [10]) (by kernel_rfl) (by simp) ?_
        refine AllReadyH.cons (o := { dst := some 47, op := Op.call { callee := Callee.value (Operand.func 21), args := #[Operand.tmp 39, Operand.tmp 42, Operand.tmp 46], argTypes := #[28, 53, 41] }, type := 4, pos := "law.go:117", after := #[{ on := 2, ground := Ground.data }, { on := 5, ground := Ground.data }, { on := 9, ground := Ground.data }], guard := none }) rfl (fun K hK => ?_) AllReadyH.nil
        have hpl := plays_any W C0 p0 q0 (totO (l.take k)) k T0 L0 ⟨ok, os, oid, ot, oe, oc, ost, of, (y1, y2, y3), ol⟩ aW.out.a HQZ.out.id (by have := HTO.out; show totO (l.take k) + ot.size ≤ _; omega) (by omega) (fun Z hZb h4 => ready30_any Z C0 p0 q0 (totO (l.take k)) k T0 L0 ⟨ok, os, oid, ot, oe, oc, ost, of, (y1, y2, y3), ol⟩ (aW.out.a.below hZb) (HQZ.out.I.below (aW.out.lw.trans (hZb.mono aW.out.lw.size))) HQZ.out.w (Nat.le_trans HQZ.out.n hBB) (by have := HTO.out; omega) (by omega))
        unfold opg sv at hpl
        simp only at hpl
        have HPL : Hid (Calls Try.prog 21 #[.pointer (some ⟨p0, 0, none⟩), .pointer (some ⟨q0, 0, none⟩), .agg #[.int .i64 ok, .int .i64 os, .int .i64 oid, .string ot, .bool oe, .int .i64 oc, .int .i64 ost, .int .i64 of, .slice y1 y2 y3]] W (PlP W C0 p0 q0 (totO (l.take k) + ot.size) (k + 1))) := hpl
        clear hpl
        go_simp
        refine Calls.mono HPL.out ?_
        intro e' Wx hp
        have bWx : Hid (∃ C T L, Tw w Wx C C1 p0 q0 p1 q1 ga w6.heap.size T T1 L L1 (totO (l.take k) + ot.size) (k + 1)) := aW.out.step0 hp (by omega) (by omega)
        obtain ⟨rfl, _⟩ := hp
        go_wp2_with fail
        refine hK.out _ _ (by obtain ⟨_, _, _, hb⟩ := bWx.out; exact ⟨⟨cell_blk hb.ra 0, cell_blk hb.rb 0⟩, HCC.out _ hb.lw⟩) (fun hHeld => ?_)
        clear hK K HPL
        try simp only [Act.put, List.setIfInBounds_toArray, List.set_cons_zero, List.set_cons_succ]
        refine wpAnyH_take (i := 11) (oi := { dst := some 48, op := Op.unOp UnOp.not 4 (Operand.tmp 47), type := 4, pos := "law.go:117", after := #[{ on := 10, ground := Ground.data }], guard := none }) (v := ?vv11) rfl (by kernel_rfl) (by kernel_rfl) (by kernel_rfl) (fun _ _ _ h => h) (Or.inl ⟨by rfl, ?hy11⟩) (by assumption) ?_
        case hy11 => (intro w hSw; (try dsimp only at hSw); go_simp; all_goals with_reducible rfl)
        try simp only [Act.put, List.setIfInBounds_toArray, List.set_cons_zero, List.set_cons_succ]
        refine wpAnyH_done (by kernel_rfl) ?_ _
        go_wp2_with fail
        go_roundw
        case rel =>
          obtain ⟨C, T, L, hb⟩ := bWx.out
          exact ⟨k + 1, by simp, by omega, C, C1, T, T1, L, L1, by rw [HTO.out.1]; exact hb⟩
        case measure => simp [intOf] <;> omega
      · have hand : bits .and .i64 os 1 = 1 := by rw [and1]; exact hr
        clear hr
        go_wp2_with fail
        have aW : Hid (Tw w wr.drew C0 C1 p0 q0 p1 q1 ga w6.heap.size T0 T1 L0 L1 (totO (l.take k)) k) := HTW.out.below ⟨rfl, rfl, rfl, Nat.le_refl _, fun _ _ => rfl⟩
        refine wp_region_held_drew (S := (fun W => (W.cell? ⟨ga, 1, none⟩ = some (.pointer (some ⟨p1, 0, none⟩)) ∧ W.cell? ⟨w6.heap.size, 1, none⟩ = some (.pointer (some ⟨q1, 0, none⟩))) ∧ W.cell? ⟨Bk, off + k * 9, none⟩ = some (.int .i64 ok) ∧ W.cell? ⟨Bk, off + k * 9 + 1, none⟩ = some (.int .i64 os) ∧ W.cell? ⟨Bk, off + k * 9 + 2, none⟩ = some (.int .i64 oid) ∧ W.cell? ⟨Bk, off + k * 9 + 3, none⟩ = some (.string ot) ∧ W.cell? ⟨Bk, off + k * 9 + 4, none⟩ = some (.bool oe) ∧ W.cell? ⟨Bk, off + k * 9 + 5, none⟩ = some (.int .i64 oc) ∧ W.cell? ⟨Bk, off + k * 9 + 6, none⟩ = some (.int .i64 ost) ∧ W.cell? ⟨Bk, off + k * 9 + 7, none⟩ = some (.int .i64 of) ∧ W.cell? ⟨Bk, off + k * 9 + 8, none⟩ = some (.slice y1 y2 y3))) (by kernel_rfl) ⟨⟨cell_blk aW.out.ra 1, cell_blk aW.out.rb 1⟩, d0, d1, d2, d3, d4, d5, d6, d7, d8⟩ (fun hHeld => ?_)
        clear d0 d1 d2 d3 d4 d5 d6 d7 d8
        generalize hWg : World.drew _ = W at aW hHeld ⊢
        clear hWg
        refine wpAnyH_take (i := 0) (oi := { dst := some 37, op := Op.move (Operand.tmp 6), type := 3, pos := "law.go:117", after := #[], guard := none }) (v := ?vv12) rfl (by kernel_rfl) (by kernel_rfl) (by kernel_rfl) (fun _ _ _ h => h) (Or.inl ⟨by rfl, ?hy12⟩) (by assumption) ?_
        case hy12 => (intro w hSw; (try dsimp only at hSw); go_simp; all_goals with_reducible rfl)
        try simp only [Act.put, List.setIfInBounds_toArray, List.set_cons_zero, List.set_cons_succ]
        refine wpAnyH_take (i := 1) (oi := { dst := some 38, op := Op.indexAddr 52 (Operand.tmp 3) (Operand.tmp 37), type := 0, pos := "law.go:117", after := #[{ on := 0, ground := Ground.data }], guard := none }) (v := ?vv13) rfl (by kernel_rfl) (by kernel_rfl) (by kernel_rfl) (fun _ _ _ h => h) (Or.inl ⟨by rfl, ?hy13⟩) (by assumption) ?_
        case hy13 => (intro w hSw; (try dsimp only at hSw); go_simp; all_goals with_reducible rfl)
        try simp only [Act.put, List.setIfInBounds_toArray, List.set_cons_zero, List.set_cons_succ]
        refine wpAnyH_take (i := 2) (oi := { dst := some 39, op := Op.load 28 (Operand.tmp 38), type := 28, pos := "law.go:117", after := #[{ on := 1, ground := Ground.data }], guard := none }) (v := ?vv14) rfl (by kernel_rfl) (by kernel_rfl) (by kernel_rfl) (fun _ _ _ h => h) (Or.inl ⟨by rfl, ?hy14⟩) (by assumption) ?_
        case hy14 => (intro w hSw; (try dsimp only at hSw); go_simp; all_goals with_reducible rfl)
        try simp only [Act.put, List.setIfInBounds_toArray, List.set_cons_zero, List.set_cons_succ]
        refine wpAnyH_take (i := 3) (oi := { dst := some 40, op := Op.move (Operand.tmp 6), type := 3, pos := "law.go:117", after := #[], guard := none }) (v := ?vv15) rfl (by kernel_rfl) (by kernel_rfl) (by kernel_rfl) (fun _ _ _ h => h) (Or.inl ⟨by rfl, ?hy15⟩) (by assumption) ?_
        case hy15 => (intro w hSw; (try dsimp only at hSw); go_simp; all_goals with_reducible rfl)
        try simp only [Act.put, List.setIfInBounds_toArray, List.set_cons_zero, List.set_cons_succ]
        refine wpAnyH_take (i := 4) (oi := { dst := some 41, op := Op.indexAddr 55 (Operand.tmp 4) (Operand.tmp 40), type := 0, pos := "law.go:117", after := #[{ on := 3, ground := Ground.data }], guard := none }) (v := ?vv16) rfl (by kernel_rfl) (by kernel_rfl) (by kernel_rfl) (fun _ _ _ h => h) (Or.inl ⟨by rfl, ?hy16⟩) (by assumption) ?_
        case hy16 => (intro w hSw; (try dsimp only at hSw); go_simp; all_goals with_reducible rfl)
        try simp only [Act.put, List.setIfInBounds_toArray, List.set_cons_zero, List.set_cons_succ]
        refine wpAnyH_take (i := 5) (oi := { dst := some 42, op := Op.load 53 (Operand.tmp 41), type := 53, pos := "law.go:117", after := #[{ on := 4, ground := Ground.data }], guard := none }) (v := ?vv17) rfl (by kernel_rfl) (by kernel_rfl) (by kernel_rfl) (fun _ _ _ h => h) (Or.inl ⟨by rfl, ?hy17⟩) (by assumption) ?_
        case hy17 => (intro w hSw; (try dsimp only at hSw); go_simp; all_goals with_reducible rfl)
        try simp only [Act.put, List.setIfInBounds_toArray, List.set_cons_zero, List.set_cons_succ]
        refine wpAnyH_take (i := 6) (oi := { dst := some 43, op := Op.move (Operand.tmp 0), type := 38, pos := "law.go:117", after := #[], guard := none }) (v := ?vv18) rfl (by kernel_rfl) (by kernel_rfl) (by kernel_rfl) (fun _ _ _ h => h) (Or.inl ⟨by rfl, ?hy18⟩) (by assumption) ?_
        case hy18 => (intro w hSw; (try dsimp only at hSw); go_simp; all_goals with_reducible rfl)
        try simp only [Act.put, List.setIfInBounds_toArray, List.set_cons_zero, List.set_cons_succ]
        refine wpAnyH_take (i := 7) (oi := { dst := some 44, op := Op.move (Operand.tmp 5), type := 3, pos := "law.go:117", after := #[], guard := none }) (v := ?vv19) rfl (by kernel_rfl) (by kernel_rfl) (by kernel_rfl) (fun _ _ _ h => h) (Or.inl ⟨by rfl, ?hy19⟩) (by assumption) ?_
        case hy19 => (intro w hSw; (try dsimp only at hSw); go_simp; all_goals with_reducible rfl)
        try simp only [Act.put, List.setIfInBounds_toArray, List.set_cons_zero, List.set_cons_succ]
        refine wpAnyH_take (i := 8) (oi := { dst := some 45, op := Op.indexAddr 38 (Operand.tmp 43) (Operand.tmp 44), type := 0, pos := "law.go:117", after := #[{ on := 6, ground := Ground.data }, { on := 7, ground := Ground.data }], guard := none }) (v := ?vv20) rfl (by kernel_rfl) (by kernel_rfl) (by kernel_rfl) (fun _ _ _ h => h) (Or.inl ⟨by rfl, ?hy20⟩) (by assumption) ?_
        case hy20 => (intro w hSw; (try dsimp only at hSw); go_simp; all_goals with_reducible rfl)
        try simp only [Act.put, List.setIfInBounds_toArray, List.set_cons_zero, List.set_cons_succ]
        refine wpAnyH_take (i := 9) (oi := { dst := some 46, op := Op.load 41 (Operand.tmp 45), type := 41, pos := "law.go:117", after := #[{ on := 8, ground := Ground.data }], guard := none }) (v := ?vv21) rfl (by kernel_rfl) (by kernel_rfl) (by kernel_rfl) (fun _ _ _ h => h) (Or.inl ⟨by rfl, ?hy21⟩) (by assumption) ?_
        case hy21 => (intro w hSw; (try dsimp only at hSw); go_simp; all_goals with_reducible rfl)
        try simp only [Act.put, List.setIfInBounds_toArray, List.set_cons_zero, List.set_cons_succ]
        refine wpAnyH_ready (rs := [10]) (by kernel_rfl) (by simp) ?_
        refine AllReadyH.cons (o := { dst := some 47, op := Op.call { callee := Callee.value (Operand.func 21), args := #[Operand.tmp 39, Operand.tmp 42, Operand.tmp 46], argTypes := #[28, 53, 41] }, type := 4, pos := "law.go:117", after := #[{ on := 2, ground := Ground.data }, { on := 5, ground := Ground.data }, { on := 9, ground := Ground.data }], guard := none }) rfl (fun K hK => ?_) AllReadyH.nil
        have hpl := plays_any W C1 p1 q1 (totO (l.take k)) k T1 L1 ⟨ok, os, oid, ot, oe, oc, ost, of, (y1, y2, y3), ol⟩ aW.out.b HQZ.out.id (by have := HTO.out; show totO (l.take k) + ot.size ≤ _; omega) (by omega) (fun Z hZb h4 => ready30_any Z C1 p1 q1 (totO (l.take k)) k T1 L1 ⟨ok, os, oid, ot, oe, oc, ost, of, (y1, y2, y3), ol⟩ (aW.out.b.below hZb) (HQZ.out.I.below (aW.out.lw.trans (hZb.mono aW.out.lw.size))) HQZ.out.w (Nat.le_trans HQZ.out.n hBB) (by have := HTO.out; omega) (by omega))
        unfold opg sv at hpl
        simp only at hpl
        have HPL : Hid (Calls Try.prog 21 #[.pointer (some ⟨p1, 0, none⟩), .pointer (some ⟨q1, 0, none⟩), .agg #[.int .i64 ok, .int .i64 os, .int .i64 oid, .string ot, .bool oe, .int .i64 oc, .int .i64 ost, .int .i64 of, .slice y1 y2 y3]] W (PlP W C1 p1 q1 (totO (l.take k) + ot.size) (k + 1))) := hpl
        clear hpl
        go_simp
        refine Calls.mono HPL.out ?_
        intro e' Wx hp
        have bWx : Hid (∃ C T L, Tw w Wx C0 C p0 q0 p1 q1 ga w6.heap.size T0 T L0 L (totO (l.take k) + ot.size) (k + 1)) := aW.out.step1 hp (by omega) (by omega)
        obtain ⟨rfl, _⟩ := hp
        go_wp2_with fail
        refine hK.out _ _ (by obtain ⟨_, _, _, hb⟩ := bWx.out; exact ⟨⟨cell_blk hb.ra 1, cell_blk hb.rb 1⟩, HCC.out _ hb.lw⟩) (fun hHeld => ?_)
        clear hK K HPL
        try simp only [Act.put, List.setIfInBounds_toArray, List.set_cons_zero, List.set_cons_succ]
        refine wpAnyH_take (i := 11) (oi := { dst := some 48, op := Op.unOp UnOp.not 4 (Operand.tmp 47), type := 4, pos := "law.go:117", after := #[{ on := 10, ground := Ground.data }], guard := none }) (v := ?vv22) rfl (by kernel_rfl) (by kernel_rfl) (by kernel_rfl) (fun _ _ _ h => h) (Or.inl ⟨by rfl, ?hy22⟩) (by assumption) ?_
        case hy22 => (intro w hSw; (try dsimp only at hSw); go_simp; all_goals with_reducible rfl)
        try simp only [Act.put, List.setIfInBounds_toArray, List.set_cons_zero, List.set_cons_succ]
        refine wpAnyH_done (by kernel_rfl) ?_ _
        go_wp2_with fail
        go_roundw
        case rel =>
          obtain ⟨C, T, L, hb⟩ := bWx.out
          exact ⟨k + 1, by simp, by omega, C0, C, T0, T, L0, L, by rw [HTO.out.1]; exact hb⟩
        case measure => simp [intOf] <;> omega
    · have hkn : k = vn := by omega
      subst hkn
      have htk : l.take k = l := by rw [HL.out]; exact List.take_length
      rw [htk] at htw
      have HTW : Hid (Tw w wr C0 C1 p0 q0 p1 q1 ga w6.heap.size T0 T1 L0 L1 (totO l) k) := htw
      clear htw htk
      go_wp2_with fail
      go_loopw [7, 8] (fun kv _ wr => ∃ i : Nat, kv = .int .i64 (i : Int) ∧ i ≤ k ∧ Hid (Tw w wr C0 C1 p0 q0 p1 q1 ga w6.heap.size T0 T1 L0 L1 (totO l) k)) (fun kv _ _ => k - (intOf kv).toNat)
      case atStart => exact ⟨0, rfl, by omega, HTW.out⟩
      case round =>
        obtain ⟨i, hkv, hi, hh⟩ := hrel
        subst hkv
        by_cases hil : i < k
        · have hkl : i < l.length := by have := HL.out; omega
          have l1 : (i : Int) < (k : Int) := by omega
          have kz : ¬ (i : Int) < 0 := by omega
          obtain ⟨Bk, off, cap, e, hc⟩ := HI.out.op i hkl
          injection e with e1 e2 e3
          subst e1
          clear e2 e3
          obtain ⟨d0, d1, d2, d3, d4, d5, d6, d7, d8⟩ := hc wr hh.out.lw
          have hqz := HZ.out l[i] (List.getElem_mem hkl)
          obtain ⟨q, hq⟩ : ∃ q, l[i] = q := ⟨_, rfl⟩
          rw [hq] at d0 d1 d2 d3 d4 d5 d6 d7 d8 hqz
          clear hq hc
          obtain ⟨ok, os, oid, ot, oe, oc, ost, of, ⟨y1, y2, y3⟩, ol⟩ := q
          have hoi : wf64 oid := hqz.id
          simp only [sv] at d0 d1 d2 d3 d4 d5 d6 d7 d8
          clear hqz
          have b1 := bel1 wr (Obj.cells #[.int .i64 3, .int .i64 os, .int .i64 oid, .string ot, .bool oe, .int .i64 oc, .int .i64 ost, .int .i64 of, .slice y1 y2 y3] 41)
          obtain ⟨u, hu⟩ : ∃ u, u = wr.alloc (Obj.cells #[.int .i64 3, .int .i64 os, .int .i64 oid, .string ot, .bool oe, .int .i64 oc, .int .i64 ost, .int .i64 of, .slice y1 y2 y3] 41) := ⟨_, rfl⟩
          have a0 := cell_blk hh.out.ra 0
          have a1 := cell_blk hh.out.ra 1
          have a0l := heap_lt hh.out.ra
          have a2 := cell_blk hh.out.rb 0
          have a3 := cell_blk hh.out.rb 1
          have a2l := heap_lt hh.out.rb
          have HU : Hid (Tw w u C0 C1 p0 q0 p1 q1 ga w6.heap.size T0 T1 L0 L1 (totO l) k) := by rw [hu]; exact hh.out.below b1
          have hp0 := plays3_any u C0 p0 q0 (totO l) k T0 L0 ⟨3, os, oid, ot, oe, oc, ost, of, (y1, y2, y3), ol⟩ HU.out.a hoi rfl
          unfold opg sv at hp0
          simp only at hp0
          have HP0 : Hid (Calls Try.prog 21 #[.pointer (some ⟨p0, 0, none⟩), .pointer (some ⟨q0, 0, none⟩), .agg #[.int .i64 3, .int .i64 os, .int .i64 oid, .string ot, .bool oe, .int .i64 oc, .int .i64 ost, .int .i64 of, .slice y1 y2 y3]] u fun e w' => e = .returned (.bool true) ∧ Below u.heap.size u w') := hp0
          have HP1 : Hid (∀ Z, Below u.heap.size u Z → Calls Try.prog 21 #[.pointer (some ⟨p1, 0, none⟩), .pointer (some ⟨q1, 0, none⟩), .agg #[.int .i64 3, .int .i64 os, .int .i64 oid, .string ot, .bool oe, .int .i64 oc, .int .i64 ost, .int .i64 of, .slice y1 y2 y3]] Z fun e w' => e = .returned (.bool true) ∧ Below Z.heap.size Z w') := fun Z hZb => by
            have hp1 := plays3_any Z C1 p1 q1 (totO l) k T1 L1 ⟨3, os, oid, ot, oe, oc, ost, of, (y1, y2, y3), ol⟩ (HU.out.b.below hZb) hoi rfl
            unfold opg sv at hp1
            exact hp1
          have HUX : Hid (u.heap[wr.heap.size]? = some (.cells #[.int .i64 3, .int .i64 os, .int .i64 oid, .string ot, .bool oe, .int .i64 oc, .int .i64 ost, .int .i64 of, .slice y1 y2 y3] 41 (0, 0))) := by show _ = _; rw [hu]; exact heap_alloc_new _ _
          clear hp0
          go_wp2_with fail
          rw [← hu]
          clear hu
          refine Calls.mono HP0.out ?_
          rintro e w8 ⟨rfl, hB8⟩
          have h8 := HU.out.below hB8
          have v0 := cell_blk h8.ra 0
          have v1 := cell_blk h8.ra 1
          have v0l := heap_lt h8.ra
          have v2 := cell_blk h8.rb 0
          have v3 := cell_blk h8.rb 1
          have v2l := heap_lt h8.rb
          have hx8 := (hB8.block _ (heap_lt HUX.out)).trans HUX.out
          have x0 := cell_blk hx8 0
          have x1 := cell_blk hx8 1
          have x2 := cell_blk hx8 2
          have x3 := cell_blk hx8 3
          have x4 := cell_blk hx8 4
          have x5 := cell_blk hx8 5
          have x6 := cell_blk hx8 6
          have x7 := cell_blk hx8 7
          have x8 := cell_blk hx8 8
          have x8l := heap_lt hx8
          clear hx8 h8
          go_wp2_with fail
          refine Calls.mono (HP1.out w8 hB8) ?_
          rintro e w9 ⟨rfl, hB9⟩
          go_wp2_with fail
          go_roundw
          case rel => exact ⟨i + 1, by simp, by omega, HU.out.below (hB8.trans (hB9.mono hB8.size))⟩
          case measure => simp [intOf] <;> omega
        · have hik : i = k := by omega
          subst hik
          go_wp2_with fail
          go_ret
          exact ⟨rfl, hh.out.lw⟩
end Go.Proofs.Ytbmaknjeflblcaa
