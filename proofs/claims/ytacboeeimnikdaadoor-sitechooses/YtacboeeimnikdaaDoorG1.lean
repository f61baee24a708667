/- SiteChooses. -/
import Derived.Test.YtacboeeimnikdaaDoorG0
import Derived.BigQuiet
import Derived.Deep.QuietTactic
import Derived.Deep.CutRange
namespace Go.Proofs.YtacboeeimnikdaaDoor
open Go.RowKit Go.Maps
open Go.Shelf
set_option linter.unusedVariables false
set_option linter.unusedSimpArgs false

theorem chrow_not {w : World} {q : Nat} {y : SV} {l : List Ch} {c : Array Value} {t : TypeId} (hr : R ECh w (sv y) l) (hb : w.heap[q]? = some (.cells c t (0, 0))) (ht : t ≠ 29) : (sv y).ownBlock ≠ some q := fun e => by
  obtain ⟨cc, hc⟩ := hr.ty q e
  rw [hb] at hc
  injection hc with hc
  injection hc with _ hc
  exact ht hc
/-- a page that is being made, in a box of its own -/
structure Gp (w wr : World) (q : Nat) (a p : ByteArray) (n : Int) (v : ByteArray) (y : SV) (l : List Ch) : Prop where
  bel : Below w.heap.size w wr
  blk : wr.heap[q]? = some (.cells #[.string a, .string p, .int .i64 n, .string v, sv y] 26 (0, 0))
  row : R ECh wr (sv y) l
  new : ∀ k, (sv y).ownBlock = some k → w.heap.size ≤ k
  hq : w.heap.size ≤ q
theorem Gp.below {w wx wy : World} {q : Nat} {a p v : ByteArray} {n : Int} {y : SV} {l : List Ch} (h : Gp w wx q a p n v y l) (hb : Below wx.heap.size wx wy) : Gp w wy q a p n v y l :=
  ⟨h.bel.trans (hb.mono h.bel.size), (hb.block _ (heap_lt h.blk)).trans h.blk, h.row.below hb, h.new, h.hq⟩
theorem Gp.app {w W : World} {q : Nat} {a p v : ByteArray} {n : Int} {y : SV} {l : List Ch} (h : Gp w W q a p n v y l) (f : Ch) (x : Value) (hx : In ECh W x [f]) (hz : (l.length + 1) * 32 ≤ 140737488355328) :
    ∃ bs c w2, (Builtin.append_ #[24, 24] 24 #[sv y, x]).run Tryd.prog W = .ok (.slice bs (l.length + 1) c) w2 ∧ Below w.heap.size w w2 ∧ w2.heap[q]? = some (.cells #[.string a, .string p, .int .i64 n, .string v, sv y] 26 (0, 0)) ∧ Gp w (w2.setCell ⟨q, 4, none⟩ (.slice bs (l.length + 1) c)) q a p n v (bs, l.length + 1, c) (l ++ [f]) := by
  obtain ⟨bs, c, w2, hrun, hR, hG⟩ := Go.Proofs.YtacboeeimnikdaaDoor.app okCh W (sv y) l h.row x [f] hx (by simpa [ECh] using hz)
  simp only [List.length_singleton] at hrun hR hG
  have hB2 : Below w.heap.size W w2 := hG.belowB h.bel.size h.new
  have hq2 : w2.heap[q]? = some (.cells #[.string a, .string p, .int .i64 n, .string v, sv y] 26 (0, 0)) := (hG.block q (heap_lt h.blk) (chrow_not h.row h.blk (by decide))).trans h.blk
  refine ⟨bs, c, w2, hrun, h.bel.trans hB2, hq2, ⟨(h.bel.trans hB2).setCell (p := ⟨q, 4, none⟩) h.hq _, ?_, ?_, ?_, h.hq⟩⟩
  · rw [setCell_block _ _ _ _ _ _ _ hq2]
    rfl
  · exact R.stays (o := sv (bs, l.length + 1, c)) hR fun k hk hl => setCell_other _ _ _ _ _ fun e => chrow_not (y := (bs, l.length + 1, c)) hR hq2 (by decide) (by rw [← e]; exact hk)
  · intro k hk
    rcases hG.own k hk with h' | h'
    · exact h.new k h'
    · have := h.bel.size; omega
/-- its value, as an argument -/
theorem Gp.cells {w wr : World} {q : Nat} {a p v : ByteArray} {n : Int} {y : SV} {l : List Ch} (h : Gp w wr q a p n v y l) : wr.cell? ⟨q, 0, none⟩ = some (.string a) ∧ wr.cell? ⟨q, 1, none⟩ = some (.string p) ∧ wr.cell? ⟨q, 2, none⟩ = some (.int .i64 n) ∧ wr.cell? ⟨q, 3, none⟩ = some (.string v) ∧ wr.cell? ⟨q, 4, none⟩ = some (sv y) :=
  ⟨cell_blk h.blk 0, cell_blk h.blk 1, cell_blk h.blk 2, cell_blk h.blk 3, cell_blk h.blk 4⟩
/-- what Serve tells of the page -/
def ScP (bs : List ByteArray) (k : Nat) (fs : List Fd) (w : World) (r : Ending) (w' : World) : Prop := Below w.heap.size w w' ∧ ∃ q : SV, r = .returned (.tuple #[.agg #[.int .i64 203, sv q, .string (chS (de ⟨1, 203, acc, csL bs k⟩) fs).b], .int .i64 0])
theorem sc_serve {w : World} {lo g : Nat} {bs : List ByteArray} {k : Nat} {y : SV} {K : List Tg} (h : Sx w lo g 1 1 (Fk [(⟨aTest, slS, 203, acc, y⟩, csL bs k)]) K) (x : SV) (fs : List Fd) (hI : In EFd w (sv x) fs) (ht : Tab w) :
    Calls Tryd.prog 11 #[.pointer (some ⟨g, 0, none⟩), .int .i64 1, .agg (rqv getS httpsS aTest slS (sv x) e0S)] w fun r w' => ScP bs k fs w r w' := by
  refine (h.serve 1 getS httpsS aTest slS x e0S fs hI ht tz_ts).mono ?_
  rintro r w' ⟨h1, h2⟩
  refine ⟨h1, ?_⟩
  rw [ch_F, ch_at, anBd_get, anN_get] at h2
  rcases h2 with ⟨h2, _⟩ | ⟨_, u, rfl, q, rfl, _⟩
  · simp [ivB] at h2
  · exact ⟨q, rfl⟩
theorem vS_add (k : Nat) (I : ByteArray) (h : itoaS (k : Int) = I) : (⟨#[118]⟩ : ByteArray) ++ I = vS k := by rw [← h]; rfl
theorem beq_ll (a : List UInt8) : (a == a) = true := by simp
set_option maxHeartbeats 16000000 in
set_option maxRecDepth 100000 in
theorem siteChooses_any (x : SV) (bs : List ByteArray) (ac mo : ByteArray) (w : World) (hI : In ES w (sv x) bs) (ht : Tab w) :
    Calls Tryd.prog 3 #[sv x, .string ac, .string mo] w fun e w' => e = .returned (.bool true) ∧ Below w.heap.size w w' := by
  have HI : Hid (In ES w (sv x) bs) := hI
  have HT : Hid (Tab w) := ht
  have CH : Hid (Calls Tryd.prog 8 #[] w fun e w' => e = .returned (.bool true) ∧ Below w.heap.size w w') := head_any w ht
  obtain ⟨b, c, e, m1, m2⟩ := hI.slice
  obtain ⟨sb, sl, sc⟩ := x
  simp only [sv] at e HI ⊢
  injection e with e1 e2 e3
  subst e1 e2 e3
  clear hI ht
  go_enter Tryd.func3, Tryd.ntmps3
  go_wp2_with fail
  go_at_call 8
  refine CH.out.mono ?_
  rintro e w1 ⟨rfl, hb1⟩
  obtain ⟨q, hq⟩ : ∃ q, q = w1.heap.size := ⟨_, rfl⟩
  obtain ⟨W1, hW1⟩ : ∃ W1, W1 = w1.alloc (.cells #[.string ⟨#[97, 46, 116, 101, 115, 116]⟩, .string ⟨#[47]⟩, .int .i64 203, .string ⟨#[97, 99, 99, 101, 112, 116]⟩, .slice none 0 0] 26) := ⟨_, rfl⟩
  have HG0 : Hid (Gp w W1 q aTest slS 203 acc (none, 0, 0) (csL bs 0)) := by
    rw [hW1]
    refine ⟨hb1.trans ((bel1 _ _).mono hb1.size), ?_, R.nil _ _, fun k hk => by simp [sv, Value.ownBlock] at hk, by rw [hq]; exact hb1.size⟩
    rw [hq, heap_al, if_pos rfl]
    rfl
  clear hb1 CH
  go_upto_region 4 with fail
  rw [← hW1, ← hq]
  clear hW1 hq
  go_wp2_with fail
  go_loopw [8, 9] (fun kv _ wr => ∃ (k : Nat) (y : SV), kv = .int .i64 (k : Int) ∧ k ≤ bs.length ∧ k ≤ 8 ∧ Hid (Gp w wr q aTest slS 203 acc y (csL bs k))) (fun kv _ _ => bs.length - (intOf kv).toNat)
  case atStart => exact ⟨0, (none, 0, 0), rfl, by omega, by omega, HG0.out⟩
  case round =>
    obtain ⟨k, ⟨yb, yl, yc⟩, rfl, hk, hk8, hG⟩ := hrel
    by_cases hlt : k < bs.length ∧ k < 8
    · obtain ⟨hlt, h8⟩ := hlt
      obtain ⟨Bk, off, cap, e, hBk, hc⟩ := HI.out.get okS k hlt
      injection e with e1 e2 e3
      clear e2 e3
      subst e1
      obtain ⟨D, hD⟩ : ∃ D, bs[k] = D := ⟨_, rfl⟩
      have c0 := (hG.out.bel.cell hBk).trans (hc 0 (.string D) (by rw [hD]; rfl))
      have HCA : Hid (chA bs k = ⟨vS k, cutB D⟩) := by show _ = _; unfold chA; rw [List.getElem?_eq_getElem hlt, hD]
      have hl1 : (k : Int) < (bs.length : Int) := by omega
      have hl2 : (k : Int) < 8 := by omega
      have HK8 : Hid (k < 8) := h8
      have HIT : Hid (∀ V, Below w.heap.size w V → Calls Tryd.prog 9 #[.int .i64 (k : Int)] V fun e w' => e = .returned (.string (itoaS (k : Int))) ∧ Below V.heap.size V w') := fun V hV => itoa_any (k : Int) (by omega) (by omega) V (HT.out.below hV)
      obtain ⟨I, hIe⟩ : ∃ I, itoaS (k : Int) = I := ⟨_, rfl⟩
      have HVS : Hid ((⟨#[118]⟩ : ByteArray) ++ I = vS k) := vS_add k I hIe
      have hsd : ¬ (9223372036854775807 < 1 + I.size) := by
        have h1 := (vS_val h8).2
        rw [← HVS.out] at h1
        simp at h1
        omega
      rw [hIe] at HIT
      simp [ES] at c0
      clear hc hBk hD hIe
      by_cases hbig : 65536 < D.size
      · have hb1 : (65536 : Int) < (D.size : Int) := by omega
        have HCU : Hid (cutB D = D.extract 0 65536) := by show _ = _; unfold cutB; rw [if_pos hbig]
        go_upto_region 10 with fail
        have aW : Hid (Gp w wr.drew q aTest slS 203 acc (yb, yl, yc) (csL bs k)) := hG.out.below (Below.refl _ _).drew
        refine wp_region_held_drew (S := (fun _ => True)) (by kernel_rfl) trivial (fun hHeld => ?_)
        generalize hWg : World.drew _ = W at aW hHeld ⊢
        clear hWg
        refine wpAnyH_take (i := 0) (oi := { dst := some 44, op := Op.fieldAddr 26 (Operand.tmp 7) 4, type := 0, pos := "outright.go:209", after := #[], guard := none }) (v := ?vv1) rfl (by kernel_rfl) (by kernel_rfl) (by kernel_rfl) (fun _ _ _ h => h) (Or.inl ⟨by rfl, ?hy1⟩) (by assumption) ?_
        case hy1 => (intro w hSw; (try dsimp only at hSw); go_simp; all_goals with_reducible rfl)
        try simp only [Act.put, List.setIfInBounds_toArray, List.set_cons_zero, List.set_cons_succ]
        refine wpAnyH_take (i := 2) (oi := { dst := some 46, op := Op.move (Operand.tmp 8), type := 3, pos := "outright.go:209", after := #[], guard := none }) (v := ?vv2) rfl (by kernel_rfl) (by kernel_rfl) (by kernel_rfl) (fun _ _ _ h => h) (Or.inl ⟨by rfl, ?hy2⟩) (by assumption) ?_
        case hy2 => (intro w hSw; (try dsimp only at hSw); go_simp; all_goals with_reducible rfl)
        try simp only [Act.put, List.setIfInBounds_toArray, List.set_cons_zero, List.set_cons_succ]
        refine wpAnyH_take (i := 5) (oi := { dst := some 49, op := Op.move (Operand.tmp 9), type := 9, pos := "outright.go:209", after := #[], guard := none }) (v := ?vv3) rfl (by kernel_rfl) (by kernel_rfl) (by kernel_rfl) (fun _ _ _ h => h) (Or.inl ⟨by rfl, ?hy3⟩) (by assumption) ?_
        case hy3 => (intro w hSw; (try dsimp only at hSw); go_simp; all_goals with_reducible rfl)
        try simp only [Act.put, List.setIfInBounds_toArray, List.set_cons_zero, List.set_cons_succ]
        refine wpAnyH_ready (rs := [1, 3]) (by kernel_rfl) (by simp) ?_
        refine AllReadyH.cons (o := { dst := some 45, op := Op.load 24 (Operand.tmp 44), type := 24, pos := "outright.go:209", after := #[{ on := 0, ground := Ground.data }], guard := none }) rfl (fun K hK => ?_) ?_
        · have f1 := aW.out.cells.2.2.2.2
          simp only [sv] at f1
          go_simp
          go_wp2_with fail
          refine hK.out _ _ trivial (fun hHeld => ?_)
          clear hK K f1
          try simp only [Act.put, List.setIfInBounds_toArray, List.set_cons_zero, List.set_cons_succ]
          refine wpAnyH_ready (rs := [3]) (by kernel_rfl) (by simp) ?_
          refine AllReadyH.cons (o := { dst := some 47, op := Op.call { callee := Callee.value (Operand.func 9), args := #[Operand.tmp 46], argTypes := #[3] }, type := 9, pos := "outright.go:209", after := #[{ on := 2, ground := Ground.data }], guard := none }) rfl (fun K hK => ?_) AllReadyH.nil
          go_simp
          refine (HIT.out _ aW.out.bel).mono ?_
          rintro e' Wx ⟨rfl, bX⟩
          have aWx : Hid (Gp w Wx q aTest slS 203 acc (yb, yl, yc) (csL bs k)) := aW.out.below bX
          clear bX
          go_wp2_with fail
          refine hK.out _ _ trivial (fun hHeld => ?_)
          clear hK K
          try simp only [Act.put, List.setIfInBounds_toArray, List.set_cons_zero, List.set_cons_succ]
          refine wpAnyH_take (i := 4) (oi := { dst := some 48, op := Op.binOp BinOp.add 9 (Operand.const (Value.string { data := #[118] })) (Operand.tmp 47) 9, type := 9, pos := "outright.go:209", after := #[{ on := 3, ground := Ground.data }], guard := none }) (v := ?vv4) rfl (by kernel_rfl) (by kernel_rfl) (by kernel_rfl) (fun _ _ _ h => h) (Or.inl ⟨by rfl, ?hy4⟩) (by assumption) ?_
          case hy4 => (intro w hSw; (try dsimp only at hSw); go_simp; all_goals with_reducible rfl)
          try simp only [Act.put, List.setIfInBounds_toArray, List.set_cons_zero, List.set_cons_succ]
          refine wpAnyH_take (i := 6) (oi := { dst := some 50, op := Op.build 29 #[(0, Operand.tmp 48), (1, Operand.tmp 49)], type := 29, pos := "outright.go:209", after := #[{ on := 4, ground := Ground.data }, { on := 5, ground := Ground.data }], guard := none }) (v := ?vv5) rfl (by kernel_rfl) (by kernel_rfl) (by kernel_rfl) (fun _ _ _ h => h) (Or.inl ⟨by rfl, ?hy5⟩) (by assumption) ?_
          case hy5 => (intro w hSw; (try dsimp only at hSw); go_simp; all_goals with_reducible rfl)
          try simp only [Act.put, List.setIfInBounds_toArray, List.set_cons_zero, List.set_cons_succ]
          refine wpAnyH_ready (rs := [7]) (by kernel_rfl) (by simp) ?_
          refine AllReadyH.cons (o := { dst := some 51, op := Op.buildSlice 24 1 #[(0, Operand.tmp 50)], type := 24, pos := "outright.go:209", after := #[{ on := 6, ground := Ground.data }], guard := none }) rfl (fun K hK => ?_) AllReadyH.nil
          obtain ⟨Wxx, hvWxx⟩ : ∃ Wxx, Wxx = Wx.alloc (.cells #[.string (⟨#[118]⟩ ++ I), .string (D.extract 0 65536)] 29) := ⟨_, rfl⟩
          have aWxx : Hid (Gp w Wxx q aTest slS 203 acc (yb, yl, yc) (csL bs k)) := by rw [hvWxx]; exact aWx.out.below (bel1 _ _)
          have HIV : Hid (In ECh Wxx (.slice (some ⟨Wx.heap.size, 0, none⟩) 1 1) [chA bs k]) := in_one (E := ECh) _ _ (chA bs k) #[.string (⟨#[118]⟩ ++ I), .string (D.extract 0 65536)] 29 (0, 0) (by rw [hvWxx, heap_al, if_pos rfl]) (by rw [HCA.out, HCU.out, HVS.out]; rfl)
          go_simp
          go_wp2_with fail
          rw [← hvWxx]
          refine hK.out _ _ trivial (fun hHeld => ?_)
          clear hK K hvWxx
          try simp only [Act.put, List.setIfInBounds_toArray, List.set_cons_zero, List.set_cons_succ]
          refine wpAnyH_ready (rs := [8]) (by kernel_rfl) (by simp) ?_
          refine AllReadyH.cons (o := { dst := some 52, op := Op.call { callee := Callee.builtin Builtin.append, args := #[Operand.tmp 45, Operand.tmp 51], argTypes := #[24, 24] }, type := 24, pos := "outright.go:209", after := #[{ on := 1, ground := Ground.data }, { on := 7, ground := Ground.data }, { on := 3, ground := Ground.chain }], guard := none }) rfl (fun K hK => ?_) AllReadyH.nil
          obtain ⟨bx, cx, Wxxx, hrun, hbWxxx, hqWxxx', hA9⟩ := aWxx.out.app (chA bs k) _ HIV.out (by rw [csL_len]; have := HK8.out; omega)
          have hqWxxx : Hid (Wxxx.heap[q]? = some (.cells #[.string aTest, .string slS, .int .i64 203, .string acc, .slice yb yl yc] 26 (0, 0))) := hqWxxx'
          have HA9 : Hid (Gp w (Wxxx.setCell ⟨q, 4, none⟩ (.slice bx ((csL bs k).length + 1) cx)) q aTest slS 203 acc (bx, (csL bs k).length + 1, cx) (csL bs (k + 1))) := by rw [csL_succ]; exact hA9
          obtain ⟨m, hm⟩ : ∃ m, m = (csL bs k).length + 1 := ⟨_, rfl⟩
          rw [← hm] at hrun HA9
          clear hA9 hqWxxx' hm
          simp only [sv] at hrun
          refine step_append_run rfl (.tmp 45) (.tmp 51) 24 24 rfl hrun (by first | rfl | simp [Act.eval, Act.put]) (by first | rfl | simp [Act.eval, Act.put]) ?_
          refine hK.out _ _ trivial (fun hHeld => ?_)
          clear hK K hrun
          try simp only [Act.put, List.setIfInBounds_toArray, List.set_cons_zero, List.set_cons_succ]
          refine wpAnyH_take (i := 9) (oi := { dst := some 53, op := Op.fieldAddr 26 (Operand.tmp 7) 4, type := 0, pos := "outright.go:209", after := #[{ on := 0, ground := Ground.phase }, { on := 1, ground := Ground.phase }, { on := 2, ground := Ground.phase }, { on := 3, ground := Ground.phase }, { on := 4, ground := Ground.phase }, { on := 5, ground := Ground.phase }, { on := 6, ground := Ground.phase }, { on := 7, ground := Ground.phase }, { on := 8, ground := Ground.phase }], guard := none }) (v := ?vv6) rfl (by kernel_rfl) (by kernel_rfl) (by kernel_rfl) (fun _ _ _ h => h) (Or.inl ⟨by rfl, ?hy6⟩) (by assumption) ?_
          case hy6 => (intro w hSw; (try dsimp only at hSw); go_simp; all_goals with_reducible rfl)
          try simp only [Act.put, List.setIfInBounds_toArray, List.set_cons_zero, List.set_cons_succ]
          refine wpAnyH_ready (rs := [10]) (by kernel_rfl) (by simp) ?_
          refine AllReadyH.cons (o := { dst := none, op := Op.store 24 (Operand.tmp 53) (Operand.tmp 52), type := 0, pos := "outright.go:209", after := #[{ on := 9, ground := Ground.data }, { on := 8, ground := Ground.data }, { on := 8, ground := Ground.chain }, { on := 0, ground := Ground.phase }, { on := 1, ground := Ground.phase }, { on := 2, ground := Ground.phase }, { on := 3, ground := Ground.phase }, { on := 4, ground := Ground.phase }, { on := 5, ground := Ground.phase }, { on := 6, ground := Ground.phase }, { on := 7, ground := Ground.phase }, { on := 8, ground := Ground.phase }], guard := none }) rfl (fun K hK => ?_) AllReadyH.nil
          have f1 := cell_blk hqWxxx.out 4
          have z1 := frozen_blk hqWxxx.out 4
          simp at f1
          go_simp
          go_wp2_with fail
          refine hK.out _ _ trivial (fun hHeld => ?_)
          clear hK K f1 z1
          try simp only [Act.put, List.setIfInBounds_toArray, List.set_cons_zero, List.set_cons_succ]
          refine wpAnyH_done (by kernel_rfl) ?_ _
          go_wp2_with fail
          go_roundw
          case rel => exact ⟨k + 1, _, by simp, by omega, by omega, HA9.out⟩
          case measure => simp [intOf]; omega
        refine AllReadyH.cons (o := { dst := some 47, op := Op.call { callee := Callee.value (Operand.func 9), args := #[Operand.tmp 46], argTypes := #[3] }, type := 9, pos := "outright.go:209", after := #[{ on := 2, ground := Ground.data }], guard := none }) rfl (fun K hK => ?_) AllReadyH.nil
        go_simp
        refine (HIT.out _ aW.out.bel).mono ?_
        rintro e' Wx ⟨rfl, bX⟩
        have aWx : Hid (Gp w Wx q aTest slS 203 acc (yb, yl, yc) (csL bs k)) := aW.out.below bX
        clear bX
        go_wp2_with fail
        refine hK.out _ _ trivial (fun hHeld => ?_)
        clear hK K
        try simp only [Act.put, List.setIfInBounds_toArray, List.set_cons_zero, List.set_cons_succ]
        refine wpAnyH_take (i := 4) (oi := { dst := some 48, op := Op.binOp BinOp.add 9 (Operand.const (Value.string { data := #[118] })) (Operand.tmp 47) 9, type := 9, pos := "outright.go:209", after := #[{ on := 3, ground := Ground.data }], guard := none }) (v := ?vv7) rfl (by kernel_rfl) (by kernel_rfl) (by kernel_rfl) (fun _ _ _ h => h) (Or.inl ⟨by rfl, ?hy7⟩) (by assumption) ?_
        case hy7 => (intro w hSw; (try dsimp only at hSw); go_simp; all_goals with_reducible rfl)
        try simp only [Act.put, List.setIfInBounds_toArray, List.set_cons_zero, List.set_cons_succ]
        refine wpAnyH_take (i := 6) (oi := { dst := some 50, op := Op.build 29 #[(0, Operand.tmp 48), (1, Operand.tmp 49)], type := 29, pos := "outright.go:209", after := #[{ on := 4, ground := Ground.data }, { on := 5, ground := Ground.data }], guard := none }) (v := ?vv8) rfl (by kernel_rfl) (by kernel_rfl) (by kernel_rfl) (fun _ _ _ h => h) (Or.inl ⟨by rfl, ?hy8⟩) (by assumption) ?_
        case hy8 => (intro w hSw; (try dsimp only at hSw); go_simp; all_goals with_reducible rfl)
        try simp only [Act.put, List.setIfInBounds_toArray, List.set_cons_zero, List.set_cons_succ]
        refine wpAnyH_ready (rs := [1, 7]) (by kernel_rfl) (by simp) ?_
        refine AllReadyH.cons (o := { dst := some 45, op := Op.load 24 (Operand.tmp 44), type := 24, pos := "outright.go:209", after := #[{ on := 0, ground := Ground.data }], guard := none }) rfl (fun K hK => ?_) ?_
        · have f1 := aWx.out.cells.2.2.2.2
          simp only [sv] at f1
          go_simp
          go_wp2_with fail
          refine hK.out _ _ trivial (fun hHeld => ?_)
          clear hK K f1
          try simp only [Act.put, List.setIfInBounds_toArray, List.set_cons_zero, List.set_cons_succ]
          refine wpAnyH_ready (rs := [7]) (by kernel_rfl) (by simp) ?_
          refine AllReadyH.cons (o := { dst := some 51, op := Op.buildSlice 24 1 #[(0, Operand.tmp 50)], type := 24, pos := "outright.go:209", after := #[{ on := 6, ground := Ground.data }], guard := none }) rfl (fun K hK => ?_) AllReadyH.nil
          obtain ⟨Wxx, hvWxx⟩ : ∃ Wxx, Wxx = Wx.alloc (.cells #[.string (⟨#[118]⟩ ++ I), .string (D.extract 0 65536)] 29) := ⟨_, rfl⟩
          have aWxx : Hid (Gp w Wxx q aTest slS 203 acc (yb, yl, yc) (csL bs k)) := by rw [hvWxx]; exact aWx.out.below (bel1 _ _)
          have HIV : Hid (In ECh Wxx (.slice (some ⟨Wx.heap.size, 0, none⟩) 1 1) [chA bs k]) := in_one (E := ECh) _ _ (chA bs k) #[.string (⟨#[118]⟩ ++ I), .string (D.extract 0 65536)] 29 (0, 0) (by rw [hvWxx, heap_al, if_pos rfl]) (by rw [HCA.out, HCU.out, HVS.out]; rfl)
          go_simp
          go_wp2_with fail
          rw [← hvWxx]
          refine hK.out _ _ trivial (fun hHeld => ?_)
          clear hK K hvWxx
          try simp only [Act.put, List.setIfInBounds_toArray, List.set_cons_zero, List.set_cons_succ]
          refine wpAnyH_ready (rs := [8]) (by kernel_rfl) (by simp) ?_
          refine AllReadyH.cons (o := { dst := some 52, op := Op.call { callee := Callee.builtin Builtin.append, args := #[Operand.tmp 45, Operand.tmp 51], argTypes := #[24, 24] }, type := 24, pos := "outright.go:209", after := #[{ on := 1, ground := Ground.data }, { on := 7, ground := Ground.data }, { on := 3, ground := Ground.chain }], guard := none }) rfl (fun K hK => ?_) AllReadyH.nil
          obtain ⟨bx, cx, Wxxx, hrun, hbWxxx, hqWxxx', hA9⟩ := aWxx.out.app (chA bs k) _ HIV.out (by rw [csL_len]; have := HK8.out; omega)
          have hqWxxx : Hid (Wxxx.heap[q]? = some (.cells #[.string aTest, .string slS, .int .i64 203, .string acc, .slice yb yl yc] 26 (0, 0))) := hqWxxx'
          have HA9 : Hid (Gp w (Wxxx.setCell ⟨q, 4, none⟩ (.slice bx ((csL bs k).length + 1) cx)) q aTest slS 203 acc (bx, (csL bs k).length + 1, cx) (csL bs (k + 1))) := by rw [csL_succ]; exact hA9
          obtain ⟨m, hm⟩ : ∃ m, m = (csL bs k).length + 1 := ⟨_, rfl⟩
          rw [← hm] at hrun HA9
          clear hA9 hqWxxx' hm
          simp only [sv] at hrun
          refine step_append_run rfl (.tmp 45) (.tmp 51) 24 24 rfl hrun (by first | rfl | simp [Act.eval, Act.put]) (by first | rfl | simp [Act.eval, Act.put]) ?_
          refine hK.out _ _ trivial (fun hHeld => ?_)
          clear hK K hrun
          try simp only [Act.put, List.setIfInBounds_toArray, List.set_cons_zero, List.set_cons_succ]
          refine wpAnyH_take (i := 9) (oi := { dst := some 53, op := Op.fieldAddr 26 (Operand.tmp 7) 4, type := 0, pos := "outright.go:209", after := #[{ on := 0, ground := Ground.phase }, { on := 1, ground := Ground.phase }, { on := 2, ground := Ground.phase }, { on := 3, ground := Ground.phase }, { on := 4, ground := Ground.phase }, { on := 5, ground := Ground.phase }, { on := 6, ground := Ground.phase }, { on := 7, ground := Ground.phase }, { on := 8, ground := Ground.phase }], guard := none }) (v := ?vv9) rfl (by kernel_rfl) (by kernel_rfl) (by kernel_rfl) (fun _ _ _ h => h) (Or.inl ⟨by rfl, ?hy9⟩) (by assumption) ?_
          case hy9 => (intro w hSw; (try dsimp only at hSw); go_simp; all_goals with_reducible rfl)
          try simp only [Act.put, List.setIfInBounds_toArray, List.set_cons_zero, List.set_cons_succ]
          refine wpAnyH_ready (rs := [10]) (by kernel_rfl) (by simp) ?_
          refine AllReadyH.cons (o := { dst := none, op := Op.store 24 (Operand.tmp 53) (Operand.tmp 52), type := 0, pos := "outright.go:209", after := #[{ on := 9, ground := Ground.data }, { on := 8, ground := Ground.data }, { on := 8, ground := Ground.chain }, { on := 0, ground := Ground.phase }, { on := 1, ground := Ground.phase }, { on := 2, ground := Ground.phase }, { on := 3, ground := Ground.phase }, { on := 4, ground := Ground.phase }, { on := 5, ground := Ground.phase }, { on := 6, ground := Ground.phase }, { on := 7, ground := Ground.phase }, { on := 8, ground := Ground.phase }], guard := none }) rfl (fun K hK => ?_) AllReadyH.nil
          have f1 := cell_blk hqWxxx.out 4
          have z1 := frozen_blk hqWxxx.out 4
          simp at f1
          go_simp
          go_wp2_with fail
          refine hK.out _ _ trivial (fun hHeld => ?_)
          clear hK K f1 z1
          try simp only [Act.put, List.setIfInBounds_toArray, List.set_cons_zero, List.set_cons_succ]
          refine wpAnyH_done (by kernel_rfl) ?_ _
          go_wp2_with fail
          go_roundw
          case rel => exact ⟨k + 1, _, by simp, by omega, by omega, HA9.out⟩
          case measure => simp [intOf]; omega
        refine AllReadyH.cons (o := { dst := some 51, op := Op.buildSlice 24 1 #[(0, Operand.tmp 50)], type := 24, pos := "outright.go:209", after := #[{ on := 6, ground := Ground.data }], guard := none }) rfl (fun K hK => ?_) AllReadyH.nil
        obtain ⟨Wxx, hvWxx⟩ : ∃ Wxx, Wxx = Wx.alloc (.cells #[.string (⟨#[118]⟩ ++ I), .string (D.extract 0 65536)] 29) := ⟨_, rfl⟩
        have aWxx : Hid (Gp w Wxx q aTest slS 203 acc (yb, yl, yc) (csL bs k)) := by rw [hvWxx]; exact aWx.out.below (bel1 _ _)
        have HIV : Hid (In ECh Wxx (.slice (some ⟨Wx.heap.size, 0, none⟩) 1 1) [chA bs k]) := in_one (E := ECh) _ _ (chA bs k) #[.string (⟨#[118]⟩ ++ I), .string (D.extract 0 65536)] 29 (0, 0) (by rw [hvWxx, heap_al, if_pos rfl]) (by rw [HCA.out, HCU.out, HVS.out]; rfl)
        go_simp
        go_wp2_with fail
        rw [← hvWxx]
        refine hK.out _ _ trivial (fun hHeld => ?_)
        clear hK K hvWxx
        try simp only [Act.put, List.setIfInBounds_toArray, List.set_cons_zero, List.set_cons_succ]
        refine wpAnyH_ready (rs := [1]) (by kernel_rfl) (by simp) ?_
        refine AllReadyH.cons (o := { dst := some 45, op := Op.load 24 (Operand.tmp 44), type := 24, pos := "outright.go:209", after := #[{ on := 0, ground := Ground.data }], guard := none }) rfl (fun K hK => ?_) AllReadyH.nil
        have f1 := aWxx.out.cells.2.2.2.2
        simp only [sv] at f1
        go_simp
        go_wp2_with fail
        refine hK.out _ _ trivial (fun hHeld => ?_)
        clear hK K f1
        try simp only [Act.put, List.setIfInBounds_toArray, List.set_cons_zero, List.set_cons_succ]
        refine wpAnyH_ready (rs := [8]) (by kernel_rfl) (by simp) ?_
        refine AllReadyH.cons (o := { dst := some 52, op := Op.call { callee := Callee.builtin Builtin.append, args := #[Operand.tmp 45, Operand.tmp 51], argTypes := #[24, 24] }, type := 24, pos := "outright.go:209", after := #[{ on := 1, ground := Ground.data }, { on := 7, ground := Ground.data }, { on := 3, ground := Ground.chain }], guard := none }) rfl (fun K hK => ?_) AllReadyH.nil
        obtain ⟨bx, cx, Wxxx, hrun, hbWxxx, hqWxxx', hA9⟩ := aWxx.out.app (chA bs k) _ HIV.out (by rw [csL_len]; have := HK8.out; omega)
        have hqWxxx : Hid (Wxxx.heap[q]? = some (.cells #[.string aTest, .string slS, .int .i64 203, .string acc, .slice yb yl yc] 26 (0, 0))) := hqWxxx'
        have HA9 : Hid (Gp w (Wxxx.setCell ⟨q, 4, none⟩ (.slice bx ((csL bs k).length + 1) cx)) q aTest slS 203 acc (bx, (csL bs k).length + 1, cx) (csL bs (k + 1))) := by rw [csL_succ]; exact hA9
        obtain ⟨m, hm⟩ : ∃ m, m = (csL bs k).length + 1 := ⟨_, rfl⟩
        rw [← hm] at hrun HA9
        clear hA9 hqWxxx' hm
        simp only [sv] at hrun
        refine step_append_run rfl (.tmp 45) (.tmp 51) 24 24 rfl hrun (by first | rfl | simp [Act.eval, Act.put]) (by first | rfl | simp [Act.eval, Act.put]) ?_
        refine hK.out _ _ trivial (fun hHeld => ?_)
        clear hK K hrun
        try simp only [Act.put, List.setIfInBounds_toArray, List.set_cons_zero, List.set_cons_succ]
        refine wpAnyH_take (i := 9) (oi := { dst := some 53, op := Op.fieldAddr 26 (Operand.tmp 7) 4, type := 0, pos := "outright.go:209", after := #[{ on := 0, ground := Ground.phase }, { on := 1, ground := Ground.phase }, { on := 2, ground := Ground.phase }, { on := 3, ground := Ground.phase }, { on := 4, ground := Ground.phase }, { on := 5, ground := Ground.phase }, { on := 6, ground := Ground.phase }, { on := 7, ground := Ground.phase }, { on := 8, ground := Ground.phase }], guard := none }) (v := ?vv10) rfl (by kernel_rfl) (by kernel_rfl) (by kernel_rfl) (fun _ _ _ h => h) (Or.inl ⟨by rfl, ?hy10⟩) (by assumption) ?_
        case hy10 => (intro w hSw; (try dsimp only at hSw); go_simp; all_goals with_reducible rfl)
        try simp only [Act.put, List.setIfInBounds_toArray, List.set_cons_zero, List.set_cons_succ]
        refine wpAnyH_ready (rs := [10]) (by kernel_rfl) (by simp) ?_
        refine AllReadyH.cons (o := { dst := none, op := Op.store 24 (Operand.tmp 53) (Operand.tmp 52), type := 0, pos := "outright.go:209", after := #[{ on := 9, ground := Ground.data }, { on := 8, ground := Ground.data }, { on := 8, ground := Ground.chain }, { on := 0, ground := Ground.phase }, { on := 1, ground := Ground.phase }, { on := 2, ground := Ground.phase }, { on := 3, ground := Ground.phase }, { on := 4, ground := Ground.phase }, { on := 5, ground := Ground.phase }, { on := 6, ground := Ground.phase }, { on := 7, ground := Ground.phase }, { on := 8, ground := Ground.phase }], guard := none }) rfl (fun K hK => ?_) AllReadyH.nil
        have f1 := cell_blk hqWxxx.out 4
        have z1 := frozen_blk hqWxxx.out 4
        simp at f1
        go_simp
        go_wp2_with fail
        refine hK.out _ _ trivial (fun hHeld => ?_)
        clear hK K f1 z1
        try simp only [Act.put, List.setIfInBounds_toArray, List.set_cons_zero, List.set_cons_succ]
        refine wpAnyH_done (by kernel_rfl) ?_ _
        go_wp2_with fail
        go_roundw
        case rel => exact ⟨k + 1, _, by simp, by omega, by omega, HA9.out⟩
        case measure => simp [intOf]; omega
      · have hb1 : ¬ (65536 : Int) < (D.size : Int) := by omega
        have HCU : Hid (cutB D = D) := by show _ = _; unfold cutB; rw [if_neg hbig]
        go_upto_region 10 with fail
        have aW : Hid (Gp w wr.drew q aTest slS 203 acc (yb, yl, yc) (csL bs k)) := hG.out.below (Below.refl _ _).drew
        refine wp_region_held_drew (S := (fun _ => True)) (by kernel_rfl) trivial (fun hHeld => ?_)
        generalize hWg : World.drew _ = W at aW hHeld ⊢
        clear hWg
        refine wpAnyH_take (i := 0) (oi := { dst := some 44, op := Op.fieldAddr 26 (Operand.tmp 7) 4, type := 0, pos := "outright.go:209", after := #[], guard := none }) (v := ?vv11) rfl (by kernel_rfl) (by kernel_rfl) (by kernel_rfl) (fun _ _ _ h => h) (Or.inl ⟨by rfl, ?hy11⟩) (by assumption) ?_
        case hy11 => (intro w hSw; (try dsimp only at hSw); go_simp; all_goals with_reducible rfl)
        try simp only [Act.put, List.setIfInBounds_toArray, List.set_cons_zero, List.set_cons_succ]
        refine wpAnyH_take (i := 2) (oi := { dst := some 46, op := Op.move (Operand.tmp 8), type := 3, pos := "outright.go:209", after := #[], guard := none }) (v := ?vv12) rfl (by kernel_rfl) (by kernel_rfl) (by kernel_rfl) (fun _ _ _ h => h) (Or.inl ⟨by rfl, ?hy12⟩) (by assumption) ?_
        case hy12 => (intro w hSw; (try dsimp only at hSw); go_simp; all_goals with_reducible rfl)
        try simp only [Act.put, List.setIfInBounds_toArray, List.set_cons_zero, List.set_cons_succ]
        refine wpAnyH_take (i := 5) (oi := { dst := some 49, op := Op.move (Operand.tmp 9), type := 9, pos := "outright.go:209", after := #[], guard := none }) (v := ?vv13) rfl (by kernel_rfl) (by kernel_rfl) (by kernel_rfl) (fun _ _ _ h => h) (Or.inl ⟨by rfl, ?hy13⟩) (by assumption) ?_
        case hy13 => (intro w hSw; (try dsimp only at hSw); go_simp; all_goals with_reducible rfl)
        try simp only [Act.put, List.setIfInBounds_toArray, List.set_cons_zero, List.set_cons_succ]
        refine wpAnyH_ready (rs := [1, 3]) (by kernel_rfl) (by simp) ?_
        refine AllReadyH.cons (o := { dst := some 45, op := Op.load 24 (Operand.tmp 44), type := 24, pos := "outright.go:209", after := #[{ on := 0, ground := Ground.data }], guard := none }) rfl (fun K hK => ?_) ?_
        · have f1 := aW.out.cells.2.2.2.2
          simp only [sv] at f1
          go_simp
          go_wp2_with fail
          refine hK.out _ _ trivial (fun hHeld => ?_)
          clear hK K f1
          try simp only [Act.put, List.setIfInBounds_toArray, List.set_cons_zero, List.set_cons_succ]
          refine wpAnyH_ready (rs := [3]) (by kernel_rfl) (by simp) ?_
          refine AllReadyH.cons (o := { dst := some 47, op := Op.call { callee := Callee.value (Operand.func 9), args := #[Operand.tmp 46], argTypes := #[3] }, type := 9, pos := "outright.go:209", after := #[{ on := 2, ground := Ground.data }], guard := none }) rfl (fun K hK => ?_) AllReadyH.nil
          go_simp
          refine (HIT.out _ aW.out.bel).mono ?_
          rintro e' Wx ⟨rfl, bX⟩
          have aWx : Hid (Gp w Wx q aTest slS 203 acc (yb, yl, yc) (csL bs k)) := aW.out.below bX
          clear bX
          go_wp2_with fail
          refine hK.out _ _ trivial (fun hHeld => ?_)
          clear hK K
          try simp only [Act.put, List.setIfInBounds_toArray, List.set_cons_zero, List.set_cons_succ]
          refine wpAnyH_take (i := 4) (oi := { dst := some 48, op := Op.binOp BinOp.add 9 (Operand.const (Value.string { data := #[118] })) (Operand.tmp 47) 9, type := 9, pos := "outright.go:209", after := #[{ on := 3, ground := Ground.data }], guard := none }) (v := ?vv14) rfl (by kernel_rfl) (by kernel_rfl) (by kernel_rfl) (fun _ _ _ h => h) (Or.inl ⟨by rfl, ?hy14⟩) (by assumption) ?_
          case hy14 => (intro w hSw; (try dsimp only at hSw); go_simp; all_goals with_reducible rfl)
          try simp only [Act.put, List.setIfInBounds_toArray, List.set_cons_zero, List.set_cons_succ]
          refine wpAnyH_take (i := 6) (oi := { dst := some 50, op := Op.build 29 #[(0, Operand.tmp 48), (1, Operand.tmp 49)], type := 29, pos := "outright.go:209", after := #[{ on := 4, ground := Ground.data }, { on := 5, ground := Ground.data }], guard := none }) (v := ?vv15) rfl (by kernel_rfl) (by kernel_rfl) (by kernel_rfl) (fun _ _ _ h => h) (Or.inl ⟨by rfl, ?hy15⟩) (by assumption) ?_
          case hy15 => (intro w hSw; (try dsimp only at hSw); go_simp; all_goals with_reducible rfl)
          try simp only [Act.put, List.setIfInBounds_toArray, List.set_cons_zero, List.set_cons_succ]
          refine wpAnyH_ready (rs := [7]) (by kernel_rfl) (by simp) ?_
          refine AllReadyH.cons (o := { dst := some 51, op := Op.buildSlice 24 1 #[(0, Operand.tmp 50)], type := 24, pos := "outright.go:209", after := #[{ on := 6, ground := Ground.data }], guard := none }) rfl (fun K hK => ?_) AllReadyH.nil
          obtain ⟨Wxx, hvWxx⟩ : ∃ Wxx, Wxx = Wx.alloc (.cells #[.string (⟨#[118]⟩ ++ I), .string D] 29) := ⟨_, rfl⟩
          have aWxx : Hid (Gp w Wxx q aTest slS 203 acc (yb, yl, yc) (csL bs k)) := by rw [hvWxx]; exact aWx.out.below (bel1 _ _)
          have HIV : Hid (In ECh Wxx (.slice (some ⟨Wx.heap.size, 0, none⟩) 1 1) [chA bs k]) := in_one (E := ECh) _ _ (chA bs k) #[.string (⟨#[118]⟩ ++ I), .string D] 29 (0, 0) (by rw [hvWxx, heap_al, if_pos rfl]) (by rw [HCA.out, HCU.out, HVS.out]; rfl)
          go_simp
          go_wp2_with fail
          rw [← hvWxx]
          refine hK.out _ _ trivial (fun hHeld => ?_)
          clear hK K hvWxx
          try simp only [Act.put, List.setIfInBounds_toArray, List.set_cons_zero, List.set_cons_succ]
          refine wpAnyH_ready (rs := [8]) (by kernel_rfl) (by simp) ?_
          refine AllReadyH.cons (o := { dst := some 52, op := Op.call { callee := Callee.builtin Builtin.append, args := #[Operand.tmp 45, Operand.tmp 51], argTypes := #[24, 24] }, type := 24, pos := "outright.go:209", after := #[{ on := 1, ground := Ground.data }, { on := 7, ground := Ground.data }, { on := 3, ground := Ground.chain }], guard := none }) rfl (fun K hK => ?_) AllReadyH.nil
          obtain ⟨bx, cx, Wxxx, hrun, hbWxxx, hqWxxx', hA9⟩ := aWxx.out.app (chA bs k) _ HIV.out (by rw [csL_len]; have := HK8.out; omega)
          have hqWxxx : Hid (Wxxx.heap[q]? = some (.cells #[.string aTest, .string slS, .int .i64 203, .string acc, .slice yb yl yc] 26 (0, 0))) := hqWxxx'
          have HA9 : Hid (Gp w (Wxxx.setCell ⟨q, 4, none⟩ (.slice bx ((csL bs k).length + 1) cx)) q aTest slS 203 acc (bx, (csL bs k).length + 1, cx) (csL bs (k + 1))) := by rw [csL_succ]; exact hA9
          obtain ⟨m, hm⟩ : ∃ m, m = (csL bs k).length + 1 := ⟨_, rfl⟩
          rw [← hm] at hrun HA9
          clear hA9 hqWxxx' hm
          simp only [sv] at hrun
          refine step_append_run rfl (.tmp 45) (.tmp 51) 24 24 rfl hrun (by first | rfl | simp [Act.eval, Act.put]) (by first | rfl | simp [Act.eval, Act.put]) ?_
          refine hK.out _ _ trivial (fun hHeld => ?_)
          clear hK K hrun
          try simp only [Act.put, List.setIfInBounds_toArray, List.set_cons_zero, List.set_cons_succ]
          refine wpAnyH_take (i := 9) (oi := { dst := some 53, op := Op.fieldAddr 26 (Operand.tmp 7) 4, type := 0, pos := "outright.go:209", after := #[{ on := 0, ground := Ground.phase }, { on := 1, ground := Ground.phase }, { on := 2, ground := Ground.phase }, { on := 3, ground := Ground.phase }, { on := 4, ground := Ground.phase }, { on := 5, ground := Ground.phase }, { on := 6, ground := Ground.phase }, { on := 7, ground := Ground.phase }, { on := 8, ground := Ground.phase }], guard := none }) (v := ?vv16) rfl (by kernel_rfl) (by kernel_rfl) (by kernel_rfl) (fun _ _ _ h => h) (Or.inl ⟨by rfl, ?hy16⟩) (by assumption) ?_
          case hy16 => (intro w hSw; (try dsimp only at hSw); go_simp; all_goals with_reducible rfl)
          try simp only [Act.put, List.setIfInBounds_toArray, List.set_cons_zero, List.set_cons_succ]
          refine wpAnyH_ready (rs := [10]) (by kernel_rfl) (by simp) ?_
          refine AllReadyH.cons (o := { dst := none, op := Op.store 24 (Operand.tmp 53) (Operand.tmp 52), type := 0, pos := "outright.go:209", after := #[{ on := 9, ground := Ground.data }, { on := 8, ground := Ground.data }, { on := 8, ground := Ground.chain }, { on := 0, ground := Ground.phase }, { on := 1, ground := Ground.phase }, { on := 2, ground := Ground.phase }, { on := 3, ground := Ground.phase }, { on := 4, ground := Ground.phase }, { on := 5, ground := Ground.phase }, { on := 6, ground := Ground.phase }, { on := 7, ground := Ground.phase }, { on := 8, ground := Ground.phase }], guard := none }) rfl (fun K hK => ?_) AllReadyH.nil
          have f1 := cell_blk hqWxxx.out 4
          have z1 := frozen_blk hqWxxx.out 4
          simp at f1
          go_simp
          go_wp2_with fail
          refine hK.out _ _ trivial (fun hHeld => ?_)
          clear hK K f1 z1
          try simp only [Act.put, List.setIfInBounds_toArray, List.set_cons_zero, List.set_cons_succ]
          refine wpAnyH_done (by kernel_rfl) ?_ _
          go_wp2_with fail
          go_roundw
          case rel => exact ⟨k + 1, _, by simp, by omega, by omega, HA9.out⟩
          case measure => simp [intOf]; omega
        refine AllReadyH.cons (o := { dst := some 47, op := Op.call { callee := Callee.value (Operand.func 9), args := #[Operand.tmp 46], argTypes := #[3] }, type := 9, pos := "outright.go:209", after := #[{ on := 2, ground := Ground.data }], guard := none }) rfl (fun K hK => ?_) AllReadyH.nil
        go_simp
        refine (HIT.out _ aW.out.bel).mono ?_
        rintro e' Wx ⟨rfl, bX⟩
        have aWx : Hid (Gp w Wx q aTest slS 203 acc (yb, yl, yc) (csL bs k)) := aW.out.below bX
        clear bX
        go_wp2_with fail
        refine hK.out _ _ trivial (fun hHeld => ?_)
        clear hK K
        try simp only [Act.put, List.setIfInBounds_toArray, List.set_cons_zero, List.set_cons_succ]
        refine wpAnyH_take (i := 4) (oi := { dst := some 48, op := Op.binOp BinOp.add 9 (Operand.const (Value.string { data := #[118] })) (Operand.tmp 47) 9, type := 9, pos := "outright.go:209", after := #[{ on := 3, ground := Ground.data }], guard := none }) (v := ?vv17) rfl (by kernel_rfl) (by kernel_rfl) (by kernel_rfl) (fun _ _ _ h => h) (Or.inl ⟨by rfl, ?hy17⟩) (by assumption) ?_
        case hy17 => (intro w hSw; (try dsimp only at hSw); go_simp; all_goals with_reducible rfl)
        try simp only [Act.put, List.setIfInBounds_toArray, List.set_cons_zero, List.set_cons_succ]
        refine wpAnyH_take (i := 6) (oi := { dst := some 50, op := Op.build 29 #[(0, Operand.tmp 48), (1, Operand.tmp 49)], type := 29, pos := "outright.go:209", after := #[{ on := 4, ground := Ground.data }, { on := 5, ground := Ground.data }], guard := none }) (v := ?vv18) rfl (by kernel_rfl) (by kernel_rfl) (by kernel_rfl) (fun _ _ _ h => h) (Or.inl ⟨by rfl, ?hy18⟩) (by assumption) ?_
        case hy18 => (intro w hSw; (try dsimp only at hSw); go_simp; all_goals with_reducible rfl)
        try simp only [Act.put, List.setIfInBounds_toArray, List.set_cons_zero, List.set_cons_succ]
        refine wpAnyH_ready (rs := [1, 7]) (by kernel_rfl) (by simp) ?_
        refine AllReadyH.cons (o := { dst := some 45, op := Op.load 24 (Operand.tmp 44), type := 24, pos := "outright.go:209", after := #[{ on := 0, ground := Ground.data }], guard := none }) rfl (fun K hK => ?_) ?_
        · have f1 := aWx.out.cells.2.2.2.2
          simp only [sv] at f1
          go_simp
          go_wp2_with fail
          refine hK.out _ _ trivial (fun hHeld => ?_)
          clear hK K f1
          try simp only [Act.put, List.setIfInBounds_toArray, List.set_cons_zero, List.set_cons_succ]
          refine wpAnyH_ready (rs := [7]) (by kernel_rfl) (by simp) ?_
          refine AllReadyH.cons (o := { dst := some 51, op := Op.buildSlice 24 1 #[(0, Operand.tmp 50)], type := 24, pos := "outright.go:209", after := #[{ on := 6, ground := Ground.data }], guard := none }) rfl (fun K hK => ?_) AllReadyH.nil
          obtain ⟨Wxx, hvWxx⟩ : ∃ Wxx, Wxx = Wx.alloc (.cells #[.string (⟨#[118]⟩ ++ I), .string D] 29) := ⟨_, rfl⟩
          have aWxx : Hid (Gp w Wxx q aTest slS 203 acc (yb, yl, yc) (csL bs k)) := by rw [hvWxx]; exact aWx.out.below (bel1 _ _)
          have HIV : Hid (In ECh Wxx (.slice (some ⟨Wx.heap.size, 0, none⟩) 1 1) [chA bs k]) := in_one (E := ECh) _ _ (chA bs k) #[.string (⟨#[118]⟩ ++ I), .string D] 29 (0, 0) (by rw [hvWxx, heap_al, if_pos rfl]) (by rw [HCA.out, HCU.out, HVS.out]; rfl)
          go_simp
          go_wp2_with fail
          rw [← hvWxx]
          refine hK.out _ _ trivial (fun hHeld => ?_)
          clear hK K hvWxx
          try simp only [Act.put, List.setIfInBounds_toArray, List.set_cons_zero, List.set_cons_succ]
          refine wpAnyH_ready (rs := [8]) (by kernel_rfl) (by simp) ?_
          refine AllReadyH.cons (o := { dst := some 52, op := Op.call { callee := Callee.builtin Builtin.append, args := #[Operand.tmp 45, Operand.tmp 51], argTypes := #[24, 24] }, type := 24, pos := "outright.go:209", after := #[{ on := 1, ground := Ground.data }, { on := 7, ground := Ground.data }, { on := 3, ground := Ground.chain }], guard := none }) rfl (fun K hK => ?_) AllReadyH.nil
          obtain ⟨bx, cx, Wxxx, hrun, hbWxxx, hqWxxx', hA9⟩ := aWxx.out.app (chA bs k) _ HIV.out (by rw [csL_len]; have := HK8.out; omega)
          have hqWxxx : Hid (Wxxx.heap[q]? = some (.cells #[.string aTest, .string slS, .int .i64 203, .string acc, .slice yb yl yc] 26 (0, 0))) := hqWxxx'
          have HA9 : Hid (Gp w (Wxxx.setCell ⟨q, 4, none⟩ (.slice bx ((csL bs k).length + 1) cx)) q aTest slS 203 acc (bx, (csL bs k).length + 1, cx) (csL bs (k + 1))) := by rw [csL_succ]; exact hA9
          obtain ⟨m, hm⟩ : ∃ m, m = (csL bs k).length + 1 := ⟨_, rfl⟩
          rw [← hm] at hrun HA9
          clear hA9 hqWxxx' hm
          simp only [sv] at hrun
          refine step_append_run rfl (.tmp 45) (.tmp 51) 24 24 rfl hrun (by first | rfl | simp [Act.eval, Act.put]) (by first | rfl | simp [Act.eval, Act.put]) ?_
          refine hK.out _ _ trivial (fun hHeld => ?_)
          clear hK K hrun
          try simp only [Act.put, List.setIfInBounds_toArray, List.set_cons_zero, List.set_cons_succ]
          refine wpAnyH_take (i := 9) (oi := { dst := some 53, op := Op.fieldAddr 26 (Operand.tmp 7) 4, type := 0, pos := "outright.go:209", after := #[{ on := 0, ground := Ground.phase }, { on := 1, ground := Ground.phase }, { on := 2, ground := Ground.phase }, { on := 3, ground := Ground.phase }, { on := 4, ground := Ground.phase }, { on := 5, ground := Ground.phase }, { on := 6, ground := Ground.phase }, { on := 7, ground := Ground.phase }, { on := 8, ground := Ground.phase }], guard := none }) (v := ?vv19) rfl (by kernel_rfl) (by kernel_rfl) (by kernel_rfl) (fun _ _ _ h => h) (Or.inl ⟨by rfl, ?hy19⟩) (by assumption) ?_
          case hy19 => (intro w hSw; (try dsimp only at hSw); go_simp; all_goals with_reducible rfl)
          try simp only [Act.put, List.setIfInBounds_toArray, List.set_cons_zero, List.set_cons_succ]
          refine wpAnyH_ready (rs := [10]) (by kernel_rfl) (by simp) ?_
          refine AllReadyH.cons (o := { dst := none, op := Op.store 24 (Operand.tmp 53) (Operand.tmp 52), type := 0, pos := "outright.go:209", after := #[{ on := 9, ground := Ground.data }, { on := 8, ground := Ground.data }, { on := 8, ground := Ground.chain }, { on := 0, ground := Ground.phase }, { on := 1, ground := Ground.phase }, { on := 2, ground := Ground.phase }, { on := 3, ground := Ground.phase }, { on := 4, ground := Ground.phase }, { on := 5, ground := Ground.phase }, { on := 6, ground := Ground.phase }, { on := 7, ground := Ground.phase }, { on := 8, ground := Ground.phase }], guard := none }) rfl (fun K hK => ?_) AllReadyH.nil
          have f1 := cell_blk hqWxxx.out 4
          have z1 := frozen_blk hqWxxx.out 4
          simp at f1
          go_simp
          go_wp2_with fail
          refine hK.out _ _ trivial (fun hHeld => ?_)
          clear hK K f1 z1
          try simp only [Act.put, List.setIfInBounds_toArray, List.set_cons_zero, List.set_cons_succ]
          refine wpAnyH_done (by kernel_rfl) ?_ _
          go_wp2_with fail
          go_roundw
          case rel => exact ⟨k + 1, _, by simp, by omega, by omega, HA9.out⟩
          case measure => simp [intOf]; omega
        refine AllReadyH.cons (o := { dst := some 51, op := Op.buildSlice 24 1 #[(0, Operand.tmp 50)], type := 24, pos := "outright.go:209", after := #[{ on := 6, ground := Ground.data }], guard := none }) rfl (fun K hK => ?_) AllReadyH.nil
        obtain ⟨Wxx, hvWxx⟩ : ∃ Wxx, Wxx = Wx.alloc (.cells #[.string (⟨#[118]⟩ ++ I), .string D] 29) := ⟨_, rfl⟩
        have aWxx : Hid (Gp w Wxx q aTest slS 203 acc (yb, yl, yc) (csL bs k)) := by rw [hvWxx]; exact aWx.out.below (bel1 _ _)
        have HIV : Hid (In ECh Wxx (.slice (some ⟨Wx.heap.size, 0, none⟩) 1 1) [chA bs k]) := in_one (E := ECh) _ _ (chA bs k) #[.string (⟨#[118]⟩ ++ I), .string D] 29 (0, 0) (by rw [hvWxx, heap_al, if_pos rfl]) (by rw [HCA.out, HCU.out, HVS.out]; rfl)
        go_simp
        go_wp2_with fail
        rw [← hvWxx]
        refine hK.out _ _ trivial (fun hHeld => ?_)
        clear hK K hvWxx
        try simp only [Act.put, List.setIfInBounds_toArray, List.set_cons_zero, List.set_cons_succ]
        refine wpAnyH_ready (rs := [1]) (by kernel_rfl) (by simp) ?_
        refine AllReadyH.cons (o := { dst := some 45, op := Op.load 24 (Operand.tmp 44), type := 24, pos := "outright.go:209", after := #[{ on := 0, ground := Ground.data }], guard := none }) rfl (fun K hK => ?_) AllReadyH.nil
        have f1 := aWxx.out.cells.2.2.2.2
        simp only [sv] at f1
        go_simp
        go_wp2_with fail
        refine hK.out _ _ trivial (fun hHeld => ?_)
        clear hK K f1
        try simp only [Act.put, List.setIfInBounds_toArray, List.set_cons_zero, List.set_cons_succ]
        refine wpAnyH_ready (rs := [8]) (by kernel_rfl) (by simp) ?_
        refine AllReadyH.cons (o := { dst := some 52, op := Op.call { callee := Callee.builtin Builtin.append, args := #[Operand.tmp 45, Operand.tmp 51], argTypes := #[24, 24] }, type := 24, pos := "outright.go:209", after := #[{ on := 1, ground := Ground.data }, { on := 7, ground := Ground.data }, { on := 3, ground := Ground.chain }], guard := none }) rfl (fun K hK => ?_) AllReadyH.nil
        obtain ⟨bx, cx, Wxxx, hrun, hbWxxx, hqWxxx', hA9⟩ := aWxx.out.app (chA bs k) _ HIV.out (by rw [csL_len]; have := HK8.out; omega)
        have hqWxxx : Hid (Wxxx.heap[q]? = some (.cells #[.string aTest, .string slS, .int .i64 203, .string acc, .slice yb yl yc] 26 (0, 0))) := hqWxxx'
        have HA9 : Hid (Gp w (Wxxx.setCell ⟨q, 4, none⟩ (.slice bx ((csL bs k).length + 1) cx)) q aTest slS 203 acc (bx, (csL bs k).length + 1, cx) (csL bs (k + 1))) := by rw [csL_succ]; exact hA9
        obtain ⟨m, hm⟩ : ∃ m, m = (csL bs k).length + 1 := ⟨_, rfl⟩
        rw [← hm] at hrun HA9
        clear hA9 hqWxxx' hm
        simp only [sv] at hrun
        refine step_append_run rfl (.tmp 45) (.tmp 51) 24 24 rfl hrun (by first | rfl | simp [Act.eval, Act.put]) (by first | rfl | simp [Act.eval, Act.put]) ?_
        refine hK.out _ _ trivial (fun hHeld => ?_)
        clear hK K hrun
        try simp only [Act.put, List.setIfInBounds_toArray, List.set_cons_zero, List.set_cons_succ]
        refine wpAnyH_take (i := 9) (oi := { dst := some 53, op := Op.fieldAddr 26 (Operand.tmp 7) 4, type := 0, pos := "outright.go:209", after := #[{ on := 0, ground := Ground.phase }, { on := 1, ground := Ground.phase }, { on := 2, ground := Ground.phase }, { on := 3, ground := Ground.phase }, { on := 4, ground := Ground.phase }, { on := 5, ground := Ground.phase }, { on := 6, ground := Ground.phase }, { on := 7, ground := Ground.phase }, { on := 8, ground := Ground.phase }], guard := none }) (v := ?vv20) rfl (by kernel_rfl) (by kernel_rfl) (by kernel_rfl) (fun _ _ _ h => h) (Or.inl ⟨by rfl, ?hy20⟩) (by assumption) ?_
        case hy20 => (intro w hSw; (try dsimp only at hSw); go_simp; all_goals with_reducible rfl)
        try simp only [Act.put, List.setIfInBounds_toArray, List.set_cons_zero, List.set_cons_succ]
        refine wpAnyH_ready (rs := [10]) (by kernel_rfl) (by simp) ?_
        refine AllReadyH.cons (o := { dst := none, op := Op.store 24 (Operand.tmp 53) (Operand.tmp 52), type := 0, pos := "outright.go:209", after := #[{ on := 9, ground := Ground.data }, { on := 8, ground := Ground.data }, { on := 8, ground := Ground.chain }, { on := 0, ground := Ground.phase }, { on := 1, ground := Ground.phase }, { on := 2, ground := Ground.phase }, { on := 3, ground := Ground.phase }, { on := 4, ground := Ground.phase }, { on := 5, ground := Ground.phase }, { on := 6, ground := Ground.phase }, { on := 7, ground := Ground.phase }, { on := 8, ground := Ground.phase }], guard := none }) rfl (fun K hK => ?_) AllReadyH.nil
        have f1 := cell_blk hqWxxx.out 4
        have z1 := frozen_blk hqWxxx.out 4
        simp at f1
        go_simp
        go_wp2_with fail
        refine hK.out _ _ trivial (fun hHeld => ?_)
        clear hK K f1 z1
        try simp only [Act.put, List.setIfInBounds_toArray, List.set_cons_zero, List.set_cons_succ]
        refine wpAnyH_done (by kernel_rfl) ?_ _
        go_wp2_with fail
        go_roundw
        case rel => exact ⟨k + 1, _, by simp, by omega, by omega, HA9.out⟩
        case measure => simp [intOf]; omega
    · have hKe : Hid (k = bs.length ∨ k = 8) := by show _ ∨ _; omega
      have HK8 : Hid (k ≤ 8) := hk8
      obtain ⟨d0, d1, d2, d3, d4⟩ := hG.out.cells
      simp only [sv] at d4
      obtain ⟨b0, cc0, e0, n1, n2⟩ := hG.out.row.slice
      simp only [sv] at e0
      injection e0 with f1 f2 f3
      subst f2
      have hlen := csL_len bs k
      rw [hlen] at d4 hG
      have HEXIT : (¬ (k : Int) < (bs.length : Int)) ∨ ((k : Int) < (bs.length : Int) ∧ ¬ (k : Int) < 8) := by omega
      have hk0 : k = 0 ∨ 1 ≤ k := by omega
      clear hlen n1 n2 f1 f3 hlt
      go_upto_region 5 with fail
      go_cut [32] from 25 to 53 (fun bv wx => bv = .bool false ∧ wx = wr)
      case first =>
        rcases HEXIT with h1 | ⟨h1, h2⟩
        · go_wp2_with fail
          go_meet
          case rel => exact ⟨rfl, rfl⟩
        · go_wp2_with fail
          go_meet
          case rel => exact ⟨rfl, rfl⟩
      case rest =>
        obtain ⟨rfl, hw⟩ := hcut
        replace hw := hw.symm
        subst hw
        clear HEXIT
        rcases hk0 with rfl | hk1
        · have hN : Hid (Calls Tryd.prog 10 #[.slice (some ⟨wr.heap.size, 0, none⟩) 1 1] (wr.alloc (.cells #[.string aTest, .string slS, .int .i64 203, .string acc, .slice yb 0 yc] 26)) fun e w' => e = .returned (.tuple #[.pointer none, .int .i64 170]) ∧ Below w.heap.size w w') := by
            obtain ⟨o1, o2⟩ := one_page ⟨aTest, slS, 203, acc, (yb, 0, yc)⟩ [] hG.out.row
            refine (new_any _ _ _ o1 o2).mono ?_
            rintro e w' ⟨hB, he⟩
            have hE : nwE [((⟨aTest, slS, 203, acc, (yb, 0, yc)⟩ : Pg), ([] : List Ch))] = 170 := by unfold nwE; rw [if_pos (by simp [wrB, ch_no])]
            rw [hE] at he
            rw [size_al] at hB
            refine ⟨?_, (hG.out.bel.trans ((bel1 _ _).mono hG.out.bel.size)).trans (hB.mono (by have := hG.out.bel.size; omega))⟩
            rcases he with ⟨_, he⟩ | ⟨he, _⟩
            · exact he
            · cases he
          go_wp2_with fail
          go_at_call 10
          refine hN.out.mono ?_
          rintro e w2 ⟨rfl, hb2⟩
          have HB2 : Hid (Below w.heap.size w w2) := hb2
          clear hb2 hN d0 d1 d2 d3 d4
          go_wp2_with fail
          go_ret
          exact ⟨rfl, HB2.out⟩
        · have hN : Hid (Calls Tryd.prog 10 #[.slice (some ⟨wr.heap.size, 0, none⟩) 1 1] (wr.alloc (.cells #[.string aTest, .string slS, .int .i64 203, .string acc, .slice yb k yc] 26)) fun e w' => Below wr.heap.size wr w' ∧ ∃ g, wr.heap.size ≤ g ∧ e = .returned (.tuple #[.pointer (some ⟨g, 0, none⟩), .int .i64 0]) ∧ Sx w' (wr.heap.size + 1) g 1 1 (Fk [(⟨aTest, slS, 203, acc, (yb, k, yc)⟩, csL bs k)]) [(aTest, slS)]) := new_one ⟨aTest, slS, 203, acc, (yb, k, yc)⟩ (csL bs k) hG.out.row (ch_pg bs k hk1 HK8.out _)
          have h0 : ¬ (k : Int) = 0 := by omega
          have h0b : ((k : Int) == 0) = false := by simp; omega
          have HK1 : Hid (1 ≤ k) := hk1
          clear hk1
          go_wp2_with fail
          go_at_call 10
          refine hN.out.mono ?_
          rintro e w2 ⟨hb2, g, hg, rfl, hS⟩
          have HS : Hid (Sx w2 (wr.heap.size + 1) g 1 1 (Fk [(⟨aTest, slS, 203, acc, (yb, k, yc)⟩, csL bs k)]) [(aTest, slS)]) := hS
          have HG2 : Hid (Gp w w2 q aTest slS 203 acc (yb, k, yc) (csL bs k)) := hG.out.below hb2
          obtain ⟨lo, hlo⟩ : ∃ lo, lo = wr.heap.size + 1 := ⟨_, rfl⟩
          rw [← hlo] at HS
          clear hb2 hg hS hN hG d0 d1 d2 d3 d4 hlo h0b
          obtain ⟨J, hJ⟩ : ∃ J, k = J + 1 := ⟨k - 1, by have := HK1.out; omega⟩
          have HJ : Hid (k = J + 1) := hJ
          have hJl : J < (csL bs k).length := by rw [csL_len]; omega
          have hJg := csL_get bs k J hJl
          have LB : Hid (∀ V i, i < k → Gp w V q aTest slS 203 acc (yb, k, yc) (csL bs k) → ∃ B off, yb = some ⟨B, off, none⟩ ∧ V.cell? ⟨B, off + i * 2, none⟩ = some (.string (vS i)) ∧ V.cell? ⟨B, off + i * 2 + 1, none⟩ = some (.string (chA bs i).b)) := fun V i hi hV => by
            obtain ⟨B, off, cap, e, hc⟩ := hV.row.isIn.ch i (by rw [csL_len]; exact hi)
            simp only [sv] at e
            injection e with e1 e2 e3
            obtain ⟨u1, u2⟩ := hc V (Below.refl _ _)
            rw [csL_get] at u1 u2
            exact ⟨B, off, e1, u1, u2⟩
          obtain ⟨LST, hLST⟩ : ∃ LST, (chA bs J).b = LST := ⟨_, rfl⟩
          have HLST : Hid ((chA bs J).b = LST) := hLST
          obtain ⟨B, off, rfl, u1, u2⟩ := LB.out w2 J (by omega) HG2.out
          rw [hLST] at u2
          have d4 := HG2.out.cells.2.2.2.2
          simp only [sv] at d4
          have hw1 : wrap64 ((k : Int) - 1) = (J : Int) := by unfold wrap64; omega
          have hw2 : (k : Int) - 1 = (J : Int) := by omega
          have lk : (J : Int) < (k : Int) := by omega
          clear hJ hJl hJg hLST u1
          go_wp2_with fail
          clear d4 u2 hw1 hw2 lk h0
          go_loopw [15, 16, 17] (fun jv _ _ wr => ∃ j : Nat, jv = .int .i64 (j : Int) ∧ j ≤ k ∧ Hid (Gp w wr q aTest slS 203 acc (some ⟨B, off, none⟩, k, yc) (csL bs k)) ∧ Hid (Sx wr lo g 1 1 (Fk [(⟨aTest, slS, 203, acc, (some ⟨B, off, none⟩, k, yc)⟩, csL bs k)]) [(aTest, slS)]) ∧ Hid (∀ i, i < j → ((vS i).toList == ac.toList) = false)) (fun jv _ _ _ => k - (intOf jv).toNat)
          case atStart => exact ⟨0, rfl, by omega, HG2.out, HS.out, fun i h => absurd h (by omega)⟩
          case round =>
            obtain ⟨j, rfl, hj, hG, hS, hno⟩ := hrel
            clear HG2 HS
            have d4 := hG.out.cells.2.2.2.2
            simp only [sv] at d4
            by_cases hlt : j < k
            · have hl1 : (j : Int) < (k : Int) := by omega
              obtain ⟨B', off', e', u1, u2⟩ := LB.out _ j hlt hG.out
              injection e' with e'
              injection e' with e1 e2
              subst e1 e2
              obtain ⟨V, hVe⟩ : ∃ V, vS j = V := ⟨_, rfl⟩
              obtain ⟨D, hDe⟩ : ∃ D, (chA bs j).b = D := ⟨_, rfl⟩
              rw [hVe] at u1
              rw [hDe] at u2
              have HV : Hid (vS j = V) := hVe
              obtain ⟨W3, hW3⟩ : ∃ W3, W3 = wr.alloc (.cells #[.string Acc, .string mo, .bool false, .string acc, .string V, .bool false, .string acc, .string mo, .bool false] 44) := ⟨_, rfl⟩
              have hB3 : Below wr.heap.size wr W3 := by rw [hW3]; exact bel1 _ _
              have HIF : Hid (In EFd W3 (sv (some ⟨wr.heap.size, 0, none⟩, 3, 3)) (fs3 mo V)) := in_row (E := EFd) (fs3 mo V) (c := #[.string Acc, .string mo, .bool false, .string acc, .string V, .bool false, .string acc, .string mo, .bool false]) (t := 44) (fz := (0, 0)) (by rw [hW3, heap_al, if_pos rfl]) rfl (by simp [fs3])
              have CG : Hid (Calls Tryd.prog 12 #[.string ⟨#[47]⟩, .slice (some ⟨wr.heap.size, 0, none⟩) 3 3] W3 fun e w' => e = .returned (.agg (rqv getS httpsS aTest slS (.slice (some ⟨wr.heap.size, 0, none⟩) 3 3) e0S)) ∧ Below W3.heap.size W3 w') := get_any slS (some ⟨wr.heap.size, 0, none⟩, 3, 3) W3
              have CS : Hid (∀ X, Below W3.heap.size W3 X → Calls Tryd.prog 11 #[.pointer (some ⟨g, 0, none⟩), .int .i64 1, .agg (rqv getS httpsS aTest slS (.slice (some ⟨wr.heap.size, 0, none⟩) 3 3) e0S)] X fun r w' => Below X.heap.size X w' ∧ ∃ q : SV, r = .returned (.tuple #[.agg #[.int .i64 203, sv q, .string D], .int .i64 0])) := fun X hX => by
                have h := sc_serve (hS.out.below (hB3.trans (hX.mono hB3.size))) (some ⟨wr.heap.size, 0, none⟩, 3, 3) (fs3 mo V) (HIF.out.below hX) (HT.out.below ((hG.out.bel.trans (hB3.mono hG.out.bel.size)).trans (hX.mono (Nat.le_trans hG.out.bel.size hB3.size))))
                unfold ScP at h
                rw [ch_hit bs k j HK8.out hlt (fs3 mo V) (by rw [fv3, hVe]), hDe] at h
                exact h
              have HB3 : Hid (Below wr.heap.size wr W3) := hB3
              clear hB3 HIF hVe hDe
              go_wp2_with fail
              rw [← hW3]
              clear hW3
              go_at_call 12
              refine CG.out.mono ?_
              rintro e w4 ⟨rfl, hb4⟩
              have C := CS.out w4 hb4
              have HC : Hid (Calls Tryd.prog 11 #[.pointer (some ⟨g, 0, none⟩), .int .i64 1, .agg (rqv getS httpsS aTest slS (.slice (some ⟨wr.heap.size, 0, none⟩) 3 3) e0S)] w4 fun r w' => Below w4.heap.size w4 w' ∧ ∃ q : SV, r = .returned (.tuple #[.agg #[.int .i64 203, sv q, .string D], .int .i64 0])) := C
              have HB4 : Hid (Below wr.heap.size wr w4) := HB3.out.trans (hb4.mono HB3.out.size)
              clear C CS hb4 CG HB3
              unfold rqv at HC ⊢
              go_wp2_with fail
              go_at_call 11
              refine HC.out.mono ?_
              rintro e w5 ⟨hb5, ⟨pb, pl, pc⟩, rfl⟩
              simp only [sv]
              obtain ⟨W6, hW6⟩ : ∃ W6, W6 = w5.alloc (.cells #[.int .i64 203, .slice pb pl pc, .string D] 37) := ⟨_, rfl⟩
              obtain ⟨n6, hn6⟩ : ∃ n6, n6 = w5.heap.size := ⟨_, rfl⟩
              have hF6 : W6.heap[n6]? = some (.cells #[.int .i64 203, .slice pb pl pc, .string D] 37 (0, 0)) := by rw [hW6, hn6, heap_al, if_pos rfl]
              have HB6 : Hid (Below wr.heap.size wr W6) := by
                have h := HB4.out.trans (hb5.mono HB4.out.size)
                rw [hW6]
                exact h.trans ((bel1 _ _).mono h.size)
              have HG6 : Hid (Gp w W6 q aTest slS 203 acc (some ⟨B, off, none⟩, k, yc) (csL bs k)) := hG.out.below HB6.out
              have HS6 : Hid (Sx W6 lo g 1 1 (Fk [(⟨aTest, slS, 203, acc, (some ⟨B, off, none⟩, k, yc)⟩, csL bs k)]) [(aTest, slS)]) := hS.out.below HB6.out
              have r0 := cell_blk hF6 0
              have r2 := cell_blk hF6 2
              simp at r0 r2
              have v1 := (HB6.out.cell (World.block_lt_of_cell? _ _ u1)).trans u1
              have v2 := (HB6.out.cell (World.block_lt_of_cell? _ _ u2)).trans u2
              have d5 := HG6.out.cells.2.2.2.2
              simp only [sv] at d5
              clear hF6 hb5 HC HB4 u1 u2 d4
              go_upto_region 22 with fail
              rw [← hW6, ← hn6]
              clear hW6 hn6
              have hdd := beq_ll D.toList
              go_quiet (fail)
              cases hac : (ac.toList == V.toList)
              · have HAC : Hid ((ac.toList == V.toList) = false) := hac
                go_wp2_with fail
                go_roundw
                case rel =>
                  refine ⟨j + 1, by simp, by omega, HG6.out.below (below_drewN (Below.refl _ _) _), HS6.out.below (below_drewN (Below.refl _ _) _), fun i hi => ?_⟩
                  by_cases hij : i = j
                  · subst hij
                    rw [HV.out]
                    have := HAC.out
                    rw [beq_eq_false_iff_ne] at this ⊢
                    exact Ne.symm this
                  · exact hno.out i (by omega)
                case measure => simp [intOf]; omega
              · go_wp2_with fail
                go_ret
                exact ⟨rfl, (HG6.out.below (below_drewN (Below.refl _ _) _)).bel⟩
            · have HNO : Hid (∀ i, i < k → ((vS i).toList == ac.toList) = false) := fun i hi => hno.out i (by omega)
              have hl1 : ¬ (j : Int) < (k : Int) := by omega
              have HLS : Hid (LST = (chA bs (k - 1)).b) := by show _ = _; rw [← HLST.out, HJ.out]; rfl
              clear hno hlt
              obtain ⟨W3, hW3⟩ : ∃ W3, W3 = wr.alloc (.cells #[.string acc, .string ac, .bool false] 44) := ⟨_, rfl⟩
              have hB3 : Below wr.heap.size wr W3 := by rw [hW3]; exact bel1 _ _
              have hIF : In EFd W3 (sv (some ⟨wr.heap.size, 0, none⟩, 1, 1)) [⟨acc, ac, false⟩] := in_one (E := EFd) _ _ (⟨acc, ac, false⟩ : Fd) #[.string acc, .string ac, .bool false] 44 (0, 0) (by rw [hW3, heap_al, if_pos rfl]) rfl
              have CG : Hid (Calls Tryd.prog 12 #[.string ⟨#[47]⟩, .slice (some ⟨wr.heap.size, 0, none⟩) 1 1] W3 fun e w' => e = .returned (.agg (rqv getS httpsS aTest slS (.slice (some ⟨wr.heap.size, 0, none⟩) 1 1) e0S)) ∧ Below W3.heap.size W3 w') := get_any slS (some ⟨wr.heap.size, 0, none⟩, 1, 1) W3
              have hlS : ∀ fs, (∀ i, i < k → ((vS i).toList == (fvS fs acc).toList) = false) → (chS (de ⟨1, 203, acc, csL bs k⟩) fs).b = LST := fun fs hf => by rw [ch_miss bs k HK8.out HK1.out fs hf, HLS.out]
              have CS : Hid (∀ X, Below W3.heap.size W3 X → Calls Tryd.prog 11 #[.pointer (some ⟨g, 0, none⟩), .int .i64 1, .agg (rqv getS httpsS aTest slS (.slice (some ⟨wr.heap.size, 0, none⟩) 1 1) e0S)] X fun r w' => Below X.heap.size X w' ∧ ∃ q : SV, r = .returned (.tuple #[.agg #[.int .i64 203, sv q, .string LST], .int .i64 0])) := fun X hX => by
                have h := sc_serve (hS.out.below (hB3.trans (hX.mono hB3.size))) (some ⟨wr.heap.size, 0, none⟩, 1, 1) [⟨acc, ac, false⟩] (hIF.below hX) (HT.out.below ((hG.out.bel.trans (hB3.mono hG.out.bel.size)).trans (hX.mono (Nat.le_trans hG.out.bel.size hB3.size))))
                unfold ScP at h
                rw [hlS _ (fun i hi => by rw [fv1]; exact HNO.out i hi)] at h
                exact h
              have CS2 : Hid (∀ X, Below wr.heap.size wr X → Calls Tryd.prog 11 #[.pointer (some ⟨g, 0, none⟩), .int .i64 1, .agg (rqv getS httpsS aTest slS (.slice none 0 0) e0S)] X fun r w' => Below X.heap.size X w' ∧ ∃ q : SV, r = .returned (.tuple #[.agg #[.int .i64 203, sv q, .string LST], .int .i64 0])) := fun X hX => by
                have h := sc_serve (hS.out.below hX) (none, 0, 0) [] (.inl ⟨rfl, rfl⟩) (HT.out.below (hG.out.bel.trans (hX.mono hG.out.bel.size)))
                unfold ScP at h
                rw [hlS _ (fun i hi => by rw [fv0]; exact vS_e (by have := HK8.out; omega))] at h
                exact h
              have HB3 : Hid (Below wr.heap.size wr W3) := hB3
              clear hB3 hIF hlS
              go_wp2_with fail
              rw [← hW3]
              clear hW3
              go_at_call 12
              refine CG.out.mono ?_
              rintro e w4 ⟨rfl, hb4⟩
              have HC : Hid (Calls Tryd.prog 11 #[.pointer (some ⟨g, 0, none⟩), .int .i64 1, .agg (rqv getS httpsS aTest slS (.slice (some ⟨wr.heap.size, 0, none⟩) 1 1) e0S)] w4 fun r w' => Below w4.heap.size w4 w' ∧ ∃ q : SV, r = .returned (.tuple #[.agg #[.int .i64 203, sv q, .string LST], .int .i64 0])) := CS.out w4 hb4
              have HB4 : Hid (Below wr.heap.size wr w4) := HB3.out.trans (hb4.mono HB3.out.size)
              clear CS hb4 CG HB3
              unfold rqv at HC ⊢
              go_wp2_with fail
              go_at_call 11
              refine HC.out.mono ?_
              rintro e w5 ⟨hb5, ⟨pb, pl, pc⟩, rfl⟩
              simp only [sv]
              obtain ⟨W6, hW6⟩ : ∃ W6, W6 = w5.alloc (.cells #[.int .i64 203, .slice pb pl pc, .string LST] 37) := ⟨_, rfl⟩
              obtain ⟨n6, hn6⟩ : ∃ n6, n6 = w5.heap.size := ⟨_, rfl⟩
              have HF6 : Hid (W6.heap[n6]? = some (.cells #[.int .i64 203, .slice pb pl pc, .string LST] 37 (0, 0))) := by show _ = _; rw [hW6, hn6, heap_al, if_pos rfl]
              have HB6 : Hid (Below wr.heap.size wr W6) := by
                have h := HB4.out.trans (hb5.mono HB4.out.size)
                rw [hW6]
                exact h.trans ((bel1 _ _).mono h.size)
              clear hb5 HC HB4 d4
              go_upto_region 27 with fail
              rw [← hW6, ← hn6]
              clear hW6 hn6
              go_wp2_with fail
              go_at_call 12
              refine (get_lit _).mono ?_
              rintro e w7 ⟨rfl, hb7⟩
              have HB7 : Hid (Below wr.heap.size wr w7) := HB6.out.trans (hb7.mono HB6.out.size)
              have HF7 : Hid (w7.heap[n6]? = some (.cells #[.int .i64 203, .slice pb pl pc, .string LST] 37 (0, 0))) := (hb7.block _ (heap_lt HF6.out)).trans HF6.out
              have HC : Hid (Calls Tryd.prog 11 #[.pointer (some ⟨g, 0, none⟩), .int .i64 1, .agg (rqv getS httpsS aTest slS (.slice none 0 0) e0S)] w7 fun r w' => Below w7.heap.size w7 w' ∧ ∃ q : SV, r = .returned (.tuple #[.agg #[.int .i64 203, sv q, .string LST], .int .i64 0])) := CS2.out w7 HB7.out
              clear hb7 HB6 HF6 CS2
              unfold rqv at HC ⊢
              go_wp2_with fail
              go_at_call 11
              refine HC.out.mono ?_
              rintro e w8 ⟨hb8, ⟨rb, rl, rc⟩, rfl⟩
              simp only [sv]
              obtain ⟨W9, hW9⟩ : ∃ W9, W9 = w8.alloc (.cells #[.int .i64 203, .slice rb rl rc, .string LST] 37) := ⟨_, rfl⟩
              obtain ⟨n9, hn9⟩ : ∃ n9, n9 = w8.heap.size := ⟨_, rfl⟩
              have hb9 : Below w7.heap.size w7 W9 := by rw [hW9]; exact hb8.trans ((bel1 _ _).mono hb8.size)
              have hF9 : W9.heap[n9]? = some (.cells #[.int .i64 203, .slice rb rl rc, .string LST] 37 (0, 0)) := by rw [hW9, hn9, heap_al, if_pos rfl]
              have hF7 := (hb9.block _ (heap_lt HF7.out)).trans HF7.out
              have HBW : Hid (Below w.heap.size w W9) := by
                have h := HB7.out.trans (hb9.mono HB7.out.size)
                exact hG.out.bel.trans (h.mono hG.out.bel.size)
              have r2 := cell_blk hF9 2
              have r3 := cell_blk hF7 2
              simp at r2 r3
              have hdd := beq_ll LST.toList
              clear hb8 hb9 hF9 hF7 HC HB7 HF7
              go_upto_region 28 with fail
              rw [← hW9, ← hn9]
              clear hW9 hn9
              go_wp2_with fail
              go_ret
              exact ⟨rfl, HBW.out⟩
end Go.Proofs.YtacboeeimnikdaaDoor
