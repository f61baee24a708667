import Derived.Test.YtfmljlflnpmceaaGreatDoorVz3
import Derived.Test.YtfmljlflnpmceaaGreatDoorVa
/- Windows of a direction are moved; a stream that an event may happen on has its windows. -/
namespace Go.Proofs.YtfmljlflnpmceaaGreatDoor
open Go.RowKit
set_option linter.unusedVariables false
set_option linter.unusedSimpArgs false
variable {w0 w w' : World} {A : LA} {k : Lk} {m : Nat}
/-- the connection's window -/
theorem WI.room {a : WA} {x : Wy} {n : Int} (h : WI w a x m) (hW : Wd w' a.rm n) (hn : InB n) (hk : Ks (fun j => j = a.rm) w w') : WI w' a { x with rm := n } m := by
  have c : ∀ {j : Nat} {cc : Array Value} {t : TypeId} {fz : Nat × Nat}, w.heap[j]? = some (.cells cc t fz) → t ≠ 103 → w'.heap[j]? = w.heap[j]? := fun hb ht => hk.block _ (heap_lt hb) (ty_ne hb h.rm ht)
  exact {
    blk := (c h.blk (by decide)).trans h.blk
    pg := h.pg.same fun j hj => by
      obtain ⟨_, cc, hc⟩ := h.pg.lt j hj
      exact c hc (by decide)
    rs := h.rs.stays (hk.block _ h.rs.lt fun e => h.rs.ne h.rm e.symm)
    bk := ⟨(c h.bk.blk (by decide)).trans h.bk.blk, h.bk.row.stays fun j hj _ => by
      obtain ⟨cc, hc⟩ := bk_row_ty h.bk hj
      exact c hc (by decide), h.bk.len⟩
    rm := hW
    rmB := hn
    rw := h.rw.stays (hk.block _ h.rw.lt fun e => h.rw.ne h.rm e.symm)
    rq := h.rq
    rd := fun j q hq => by
      obtain ⟨n, h1, h2, h3⟩ := h.rd j q hq
      exact ⟨n, h1, (hk.block _ (heap_lt h2) (h.nr j q hq)).trans h2, h3⟩
    inj := h.inj
    nr := h.nr
    srt := h.srt
    ne := h.ne }
/-- a stream's window -/
theorem WI.roomS {a : WA} {x : Wy} {n id : Int} {kk : Nat} (h : WI w a x m) (hq : a.q id = some kk) (hW : Wd w' kk n) (hn : InB n) (hk : Ks (fun j => j = kk) w w') : WI w' a { x with rw := putm x.rw id n } m := by
  obtain ⟨n0, q1, q2, q3⟩ := h.rd id kk hq
  have c : ∀ {j : Nat} {cc : Array Value} {t : TypeId} {fz : Nat × Nat}, w.heap[j]? = some (.cells cc t fz) → t ≠ 103 → w'.heap[j]? = w.heap[j]? := fun hb ht => hk.block _ (heap_lt hb) (ty_ne hb q2 ht)
  exact {
    blk := (c h.blk (by decide)).trans h.blk
    pg := h.pg.same fun j hj => by
      obtain ⟨_, cc, hc⟩ := h.pg.lt j hj
      exact c hc (by decide)
    rs := h.rs.stays (hk.block _ h.rs.lt fun e => h.rs.ne q2 e.symm)
    bk := ⟨(c h.bk.blk (by decide)).trans h.bk.blk, h.bk.row.stays fun j hj _ => by
      obtain ⟨cc, hc⟩ := bk_row_ty h.bk hj
      exact c hc (by decide), h.bk.len⟩
    rm := (hk.block _ (heap_lt h.rm) fun e => h.nr id kk hq e.symm).trans h.rm
    rmB := h.rmB
    rw := h.rw.stays (hk.block _ h.rw.lt fun e => h.rw.ne q2 e.symm)
    rq := fun i => by
      show (look (putm x.rw id n) i).isSome = _
      rw [look_putm h.srt]
      split
      · rename_i e
        rw [e, hq]; rfl
      · exact h.rq i
    rd := fun i j hi => by
      show ∃ n', look (putm x.rw id n) i = some n' ∧ _
      rw [look_putm h.srt]
      split
      · rename_i e
        rw [e, hq] at hi
        injection hi with e2
        subst e2
        exact ⟨n, rfl, hW, hn⟩
      · rename_i e
        obtain ⟨n', h1, h2, h3⟩ := h.rd i j hi
        exact ⟨n', h1, (hk.block _ (heap_lt h2) fun e2 => e (h.inj i id j hi (e2 ▸ hq))).trans h2, h3⟩
    inj := h.inj
    nr := h.nr
    srt := h.srt.putm _ _
    ne := h.ne }
theorem KpO.of_wd {b : Nat} {n : Int} (hW : Wd w b n) (hk : Ks (fun j => j = b) w w') : KpO w w' := fun j c t fz hj ht => (hk.block j (heap_lt hj) (ty_ne hj hW ht.2.2.2.2.2.1)).trans hj
theorem LJ.roomC (h : LJ w0 w A k m) (s : Bool) {n : Int} (hW : Wd w' (A.w s).rm n) (hn : InB n) (hk : Ks (fun j => j = (A.w s).rm) w w') : LJ w0 w' A (k.upd s fun y => { y with rm := n }) m ∧ KpO w w' := by
  have := h.way (s := s) ((h.wi s).room hW hn hk) rfl (hk.mono fun i _ e => .inr (.inr (.inr (.inr (.inr (.inl e)))))) (fun j hj => .inl hj)
  rw [upd_self] at this
  rw [Lk.upd_const]
  exact ⟨this, KpO.of_wd (h.wi s).rm hk⟩
theorem LJ.roomS (h : LJ w0 w A k m) (s : Bool) {n id : Int} {kk : Nat} (hq : (A.w s).q id = some kk) (hW : Wd w' kk n) (hn : InB n) (hk : Ks (fun j => j = kk) w w') : LJ w0 w' A (k.upd s fun y => { y with rw := putm y.rw id n }) m ∧ KpO w w' := by
  have := h.way (s := s) ((h.wi s).roomS hq hW hn hk) rfl (hk.mono fun i _ e => .inr (.inr (.inr (.inr (.inr (.inr (.inr ⟨id, e ▸ hq⟩))))))) (fun j hj => .inl hj)
  rw [upd_self] at this
  rw [Lk.upd_const]
  obtain ⟨n0, q1, q2, q3⟩ := (h.wi s).rd id kk hq
  exact ⟨this, KpO.of_wd q2 hk⟩
theorem LJ.takeC (h : LJ w0 w A k m) (s : Bool) (n : Int) : Calls Tryz.prog 76 #[.pointer (some ⟨(A.w s).rm, 0, none⟩), .int .i64 n] w fun e w' => e = .returned (.bool (k.takeC s n).2) ∧ LJ w0 w' A (k.takeC s n).1 m ∧ KpO w w' := by
  refine (take_any w _ _ n (h.wi s).rm (h.wi s).rmB).mono ?_
  rintro e w' ⟨rfl, h1, h2⟩
  obtain ⟨a, b⟩ := h.roomC s h1 (tkN_in (h.wi s).rmB) h2
  refine ⟨rfl, ?_, b⟩
  have e : (k.takeC s n).1 = k.upd s fun y => { y with rm := tkN y.rm n } := rfl
  rw [e, Lk.upd_const]
  rw [Lk.upd_const] at a
  exact a
theorem LJ.giveC (h : LJ w0 w A k m) (s : Bool) (n : Int) : Calls Tryz.prog 63 #[.pointer (some ⟨(A.w s).rm, 0, none⟩), .int .i64 n] w fun e w' => e = .returned (.int .i64 (gvC (k.wy s).rm n)) ∧ LJ w0 w' A (k.upd s fun y => { y with rm := gvN y.rm n }) m ∧ KpO w w' := by
  refine (give_any w _ _ n (h.wi s).rm (h.wi s).rmB).mono ?_
  rintro e w' ⟨rfl, h1, h2⟩
  obtain ⟨a, b⟩ := h.roomC s h1 (gvN_in (h.wi s).rmB) h2
  refine ⟨rfl, ?_, b⟩
  rw [Lk.upd_const]
  rw [Lk.upd_const] at a
  exact a
/-- where a stream's window lies -/
theorem LJ.at_q (h : LJ w0 w A k m) (s : Bool) {id : Int} (hs : (look (k.wy s).rw id).isSome = true) : ∃ kk, (A.w s).q id = some kk := by
  rw [(h.wi s).rq id] at hs
  exact Option.isSome_iff_exists.1 hs
theorem LJ.takeS (h : LJ w0 w A k m) (s : Bool) (id n : Int) {kk : Nat} (hq : (A.w s).q id = some kk) : Calls Tryz.prog 76 #[.pointer (some ⟨kk, 0, none⟩), .int .i64 n] w fun e w' => e = .returned (.bool (tk ((look (k.wy s).rw id).getD 0) n)) ∧ LJ w0 w' A (k.takeS s id n).1 m ∧ KpO w w' := by
  obtain ⟨n0, q1, q2, q3⟩ := (h.wi s).rd id kk hq
  refine (take_any w _ _ n q2 q3).mono ?_
  rintro e w' ⟨rfl, h1, h2⟩
  obtain ⟨a, b⟩ := h.roomS s hq h1 (tkN_in q3) h2
  refine ⟨by rw [q1]; rfl, ?_, b⟩
  have e : (k.takeS s id n).1 = k.upd s fun y => { y with rw := putm y.rw id (tkN ((look (k.wy s).rw id).getD 0) n) } := rfl
  rw [e, q1]
  exact a
theorem LJ.giveS (h : LJ w0 w A k m) (s : Bool) (id n : Int) {kk : Nat} (hq : (A.w s).q id = some kk) : Calls Tryz.prog 63 #[.pointer (some ⟨kk, 0, none⟩), .int .i64 n] w fun e w' => e = .returned (.int .i64 (gvC ((look (k.wy s).rw id).getD 0) n)) ∧ LJ w0 w' A (k.upd s fun y => { y with rw := putm y.rw id (gvN ((look (k.wy s).rw id).getD 0) n) }) m ∧ KpO w w' := by
  obtain ⟨n0, q1, q2, q3⟩ := (h.wi s).rd id kk hq
  refine (give_any w _ _ n q2 q3).mono ?_
  rintro e w' ⟨rfl, h1, h2⟩
  obtain ⟨a, b⟩ := h.roomS s hq h1 (gvN_in q3) h2
  refine ⟨by rw [q1]; rfl, ?_, b⟩
  rw [q1]
  exact a
theorem LJ.shiftS (h : LJ w0 w A k m) (s : Bool) (id n : Int) {kk : Nat} (hq : (A.w s).q id = some kk) : Calls Tryz.prog 82 #[.pointer (some ⟨kk, 0, none⟩), .int .i64 n] w fun e w' => e = .returned (.int .i64 (sfC ((look (k.wy s).rw id).getD 0) n)) ∧ LJ w0 w' A (k.upd s fun y => { y with rw := putm y.rw id (sfN ((look (k.wy s).rw id).getD 0) n) }) m ∧ KpO w w' := by
  obtain ⟨n0, q1, q2, q3⟩ := (h.wi s).rd id kk hq
  refine (shift_any w _ _ n q2 q3).mono ?_
  rintro e w' ⟨rfl, h1, h2⟩
  obtain ⟨a, b⟩ := h.roomS s hq h1 (sfN_in q3) h2
  refine ⟨by rw [q1]; rfl, ?_, b⟩
  rw [q1]
  exact a
/-- the look-up of a stream's window -/
theorem LJ.lookS (h : LJ w0 w A k m) (s : Bool) {id : Int} (hid : I64 id) {kk : Nat} (hq : (A.w s).q id = some kk) : (Instr.lookup 74 (.map (some (A.w s).wb)) (.int .i64 id) false).run Tryz.prog w = .ok (.pointer (some ⟨kk, 0, none⟩)) w := by
  rw [(h.wi s).rw.look hid]
  unfold qG
  rw [hq]
  rfl
/-- an event of DATA or WINDOW_UPDATE that may happen, happens on a stream of the table -/
theorem doo_in {T : Tb} (h : T.Ok) {id : Int} {g : Bool} {kd : Int} (hk : kd = 3 ∨ kd = 4 ∨ kd = 7) (h4 : (T.doo id g kd).2.1 ≠ 4) (h1 : (T.doo id g kd).2.1 ≠ 1) (h0 : (T.doo id g kd).2.2 = 0) : ∃ u, look T.L id = some u := by
  unfold Tb.doo at h4 h1 h0
  rw [if_neg (by rcases hk with rfl | rfl | rfl <;> decide)] at h4 h1 h0
  by_cases hi : isStr id = true
  · rw [if_neg (by simp [hi])] at h4 h1 h0
    by_cases c1 : (T.st id == 0 && isB kd && !T.may id g kd) = true
    · rw [if_pos c1] at h4 h1 h0
      cases g
      · exact absurd rfl h4
      · exact absurd (show (1 : Int) = 0 from h0) (by decide)
    · rw [if_neg c1] at h4 h1 h0
      by_cases c2 : (T.cut id && g && !(kd == 5)) = true
      · rw [if_pos c2] at h4 h1 h0
        exact absurd rfl h1
      · rw [if_neg c2] at h4 h1 h0
        simp only at h4 h1 h0
        cases hl : look T.L id with
        | some u => exact ⟨u, rfl⟩
        | none =>
          exfalso
          have hst : T.st id = 0 ∨ T.st id = 6 := by
            unfold Tb.st
            rw [if_pos hi, hl]
            split
            · exact .inl rfl
            · exact .inr rfl
          rcases hst with e | e <;> rw [e] at h4 h1 h0 <;> rcases hk with rfl | rfl | rfl <;> cases g <;> first | exact h4 (by decide) | exact h1 (by decide) | exact absurd h0 (by decide)
  · rw [if_pos (by simpa using hi)] at h4 h1 h0
    cases g
    · exact absurd rfl h4
    · exact absurd (show (1 : Int) = 0 from h0) (by decide)
/-- what happen tells, of the table's verdict -/
theorem happen_doo (k : Lk) (s : Bool) (id kd : Int) : (k.happen s id kd).2 = if (k.T.doo id (!s) kd).2.1 = 4 then (1, false) else ((k.T.doo id (!s) kd).2.2, (k.T.doo id (!s) kd).2.1 == 1) := by
  unfold Lk.happen
  simp only
  split <;> rfl
theorem happen_rw (k : Lk) (hs : ∀ s, Srt (k.wy s).rw) (s : Bool) (id kd : Int) (t : Bool) (j : Int) (h : (look (k.wy t).rw j).isSome = true) : (look ((k.happen s id kd).1.wy t).rw j).isSome = true := by
  have hb : ∀ (T : Tb) (b : Bool), (look ((if b = true then (⟨T, k.wy⟩ : Lk).bear id else ⟨T, k.wy⟩ : Lk).wy t).rw j).isSome = true := by
    intro T b
    cases b
    · exact h
    · show (look (putm (k.wy t).rw id _) j).isSome = true
      rw [look_putm (hs t)]
      split
      · rfl
      · exact h
  unfold Lk.happen
  simp only
  split <;> exact hb _ _
/-- the windows of a stream on which DATA or WINDOW_UPDATE happened -/
theorem happen_room {k : Lk} (hv : Lv k) (hok : k.T.Ok) (hs : ∀ s, Srt (k.wy s).rw) {s : Bool} {id kd : Int} (hk : kd = 3 ∨ kd = 4 ∨ kd = 7) (h0 : (k.happen s id kd).2.1 = 0) (h1 : s = true ∨ (k.happen s id kd).2.2 = false) (t : Bool) : (look ((k.happen s id kd).1.wy t).rw id).isSome = true := by
  rw [happen_doo] at h0 h1
  by_cases h4 : (k.T.doo id (!s) kd).2.1 = 4
  · rw [if_pos h4] at h0
    exact absurd h0 (by decide)
  · rw [if_neg h4] at h0 h1
    simp only at h0 h1
    have hn1 : (k.T.doo id (!s) kd).2.1 ≠ 1 := by
      rcases h1 with rfl | h1
      · intro e
        unfold Tb.doo at e
        rw [if_neg (by rcases hk with rfl | rfl | rfl <;> decide)] at e
        split at e
        · exact absurd (show (4 : Int) = 1 from e) (by decide)
        · split at e
          · exact absurd (show (4 : Int) = 1 from e) (by decide)
          · split at e
            · rename_i c
              simp at c
            · simp only at e
              have hr := hok.st_range id
              rcases states hr with e1 | e1 | e1 | e1 | e1 | e1 | e1 <;> rw [e1] at e <;> rcases hk with rfl | rfl | rfl <;> exact absurd e (by decide)
      · intro e
        rw [e] at h1
        exact absurd h1 (by decide)
    obtain ⟨u, hu⟩ := doo_in hok hk h4 hn1 h0
    exact happen_rw k hs s id kd t id (hv t id u hu)
end Go.Proofs.YtfmljlflnpmceaaGreatDoor
/- DATA that is sent. -/
namespace Go.Proofs.YtfmljlflnpmceaaGreatDoor
open Go.RowKit
set_option linter.unusedVariables false
set_option linter.unusedSimpArgs false
theorem hid {P : Prop} (h : P) : Hid P := h
set_option maxRecDepth 100000 in
set_option maxHeartbeats 40000000 in
theorem sendData_any (t : Tn) (e : Et) (n : Int) (w0 w : World) (A : LA) (k : Lk) (m : Nat) (h : LJ w0 w A k m) (hv : Lv k) (hf : t.f = e.f) (hs : t.s = e.s) (hn : n = e.size) (hg : t.lk = A.g) (hw : t.wa = (A.w t.s).g) (hb : t.bk = (A.w (!t.s)).g) (hi : I64 t.f.st) (hst : t.s = true) (hm : m + 2 < maxLen) :
    Calls Tryz.prog 58 #[.agg (tnv t), .int .i64 n] w fun r w' => r = .returned (.int .i64 (k.sendData e).2) ∧ ∃ A', A'.g = A.g ∧ (∀ u, (A'.w u).g = (A.w u).g) ∧ LJ w0 w' A' (k.sendData e).1 (m + 3) := by
  obtain ⟨R, hR⟩ : ∃ R, k.sendData e = R := ⟨_, rfl⟩
  obtain ⟨kd, hkd⟩ : ∃ v, (if Fm.hasF t.f.fl 1 = true then (4 : Int) else 3) = v := ⟨_, rfl⟩
  obtain ⟨⟨k1, c1, i1⟩, hH⟩ : ∃ H, k.happen t.s t.f.st kd = H := ⟨_, rfl⟩
  obtain ⟨⟨k2, c2⟩, hC2⟩ : ∃ H, k1.takeC t.s n = H := ⟨_, rfl⟩
  obtain ⟨k3, hk3⟩ : ∃ v, (k2.takeS t.s t.f.st n).1 = v := ⟨_, rfl⟩
  obtain ⟨c3, hc3⟩ : ∃ v, tk ((look (k2.wy t.s).rw t.f.st).getD 0) n = v := ⟨_, rfl⟩
  have HR : Hid (R = if c1 ≠ 0 then (k1, c1) else if c2 = false then (k2, 3) else (k3, if c3 = true then 0 else 3)) := by
    show _ = _
    rw [← hR]
    unfold Lk.sendData Et.kind
    simp only
    rw [← hf, ← hs, ← hn]
    have e1 : (if e.has 1 = true then (4 : Int) else 3) = kd := by rw [← hkd, hf]; rfl
    rw [e1, hH]
    simp only
    rw [hC2]
    simp only
    rw [← hk3, ← hc3]
    rfl
  have HRm : Hid (c1 = 0 → (look (k1.wy t.s).rw t.f.st).isSome = true) := fun hc => by
    have := happen_room hv h.ti.ok (fun u => (h.wi u).srt) (s := t.s) (id := t.f.st) (kd := kd) (by rw [← hkd]; split <;> simp) (by rw [hH]; exact hc) (.inl hst) t.s
    rw [hH] at this
    exact this
  rw [hR]
  obtain ⟨W1, hW1⟩ : ∃ V, w.alloc (.cells (tnv t) 78) = V := ⟨_, rfl⟩
  obtain ⟨b0, hb'⟩ : ∃ q, w.heap.size = q := ⟨_, rfl⟩
  have b1 : Below w.heap.size w W1 := by rw [← hW1]; exact bel1 _ _
  have hb0 : W1.heap[b0]? = some (.cells (tnv t) 78 (0, 0)) := by rw [← hW1, ← hb', heap_al, if_pos rfl]
  have HL0 : Hid (LJ w0 W1 A k m ∧ W1.heap[b0]? = some (.cells (tnv t) 78 (0, 0))) := ⟨h.below b1, hb0⟩
  have HKd0 : Hid (∀ V, Calls Tryz.prog 53 #[.agg (tnv t), .int .i64 3, .int .i64 4] V fun e w' => e = .returned (.int .i64 kd) ∧ Below V.heap.size V w') := fun V => by
    have := kind_any t 3 4 V
    rw [hkd] at this
    exact this
  have HHp0 : Hid (∀ V, LJ w0 V A k m → Calls Tryz.prog 47 #[.agg (tnv t), .int .i64 t.f.st, .int .i64 kd] V fun e w' => e = .returned (.tuple #[.int .i64 c1, .bool i1]) ∧ ∃ A', A'.g = A.g ∧ (∀ u, (A'.w u).g = (A.w u).g) ∧ LJ w0 w' A' k1 (m + 2) ∧ KpO V w') := fun V hV => by
    have := happen_any t t.f.st kd w0 V A k m hV hv hg hw hb hi (by omega)
    rw [hH] at this
    exact this
  have HI : Hid (I64 t.f.st) := hi
  have HW : Hid (t.wa = (A.w t.s).g) := hw
  have HC2 : Hid (k1.takeC t.s n = (k2, c2)) := hC2
  have HC3 : Hid (tk ((look (k2.wy t.s).rw t.f.st).getD 0) n = c3 ∧ (k2.takeS t.s t.f.st n).1 = k3) := ⟨hc3, hk3⟩
  have j0 := cell_blk hb0 0
  have j1 := cell_blk hb0 1
  have j2 := cell_blk hb0 2
  have j3 := cell_blk hb0 3
  have j4 := cell_blk hb0 4
  have j5 := cell_blk hb0 5
  have j6 := cell_blk hb0 6
  have j7 := cell_blk hb0 7
  have j8 := cell_blk hb0 8
  have j9 := cell_blk hb0 9
  have j10 := cell_blk hb0 10
  have j11 := cell_blk hb0 11
  have j12 := cell_blk hb0 12
  have j13 := cell_blk hb0 13
  have j14 := cell_blk hb0 14
  clear h hv hw hb hi hst hm hH hR hC2 hk3 hc3 hkd b1 hb0 hf hs hn
  obtain ⟨lk, ⟨ty, fl, st, da, pa, de, ex, wt, co, la⟩, p, s, wa, bk⟩ := t
  simp only at hg HHp0 HI HW HC2 HC3 HRm
  subst hg
  simp only [tnv] at hW1 HL0 HHp0 HKd0 j0 j1 j2 j3 j4 j5 j6 j7 j8 j9 j10 j11 j12 j13 j14 ⊢
  simp only [List.getElem?_toArray, List.getElem?_cons_succ, List.getElem?_cons_zero] at j0 j1 j2 j3 j4 j5 j6 j7 j8 j9 j10 j11 j12 j13 j14
  have hSb : Hid (∀ V : World, V.heap[b0]? = some (.cells #[.pointer (some ⟨A.g, 0, none⟩), .int .i64 ty, .int .i64 fl, .int .i64 st, .string da, .int .i64 pa, .int .i64 de, .bool ex, .int .i64 wt, .int .i64 co, .int .i64 la, p, .bool s, .pointer (some ⟨wa, 0, none⟩), .pointer (some ⟨bk, 0, none⟩)] 78 (0, 0)) → V.cell? ⟨b0, 0, none⟩ = some (.pointer (some ⟨A.g, 0, none⟩)) ∧ V.cell? ⟨b0, 1, none⟩ = some (.int .i64 ty) ∧ V.cell? ⟨b0, 2, none⟩ = some (.int .i64 fl) ∧ V.cell? ⟨b0, 3, none⟩ = some (.int .i64 st) ∧ V.cell? ⟨b0, 4, none⟩ = some (.string da) ∧ V.cell? ⟨b0, 5, none⟩ = some (.int .i64 pa) ∧ V.cell? ⟨b0, 6, none⟩ = some (.int .i64 de) ∧ V.cell? ⟨b0, 7, none⟩ = some (.bool ex) ∧ V.cell? ⟨b0, 8, none⟩ = some (.int .i64 wt) ∧ V.cell? ⟨b0, 9, none⟩ = some (.int .i64 co) ∧ V.cell? ⟨b0, 10, none⟩ = some (.int .i64 la) ∧ V.cell? ⟨b0, 11, none⟩ = some p ∧ V.cell? ⟨b0, 12, none⟩ = some (.bool s) ∧ V.cell? ⟨b0, 13, none⟩ = some (.pointer (some ⟨wa, 0, none⟩)) ∧ V.cell? ⟨b0, 14, none⟩ = some (.pointer (some ⟨bk, 0, none⟩))) := fun V h1 => ⟨cell_blk h1 0, cell_blk h1 1, cell_blk h1 2, cell_blk h1 3, cell_blk h1 4, cell_blk h1 5, cell_blk h1 6, cell_blk h1 7, cell_blk h1 8, cell_blk h1 9, cell_blk h1 10, cell_blk h1 11, cell_blk h1 12, cell_blk h1 13, cell_blk h1 14⟩
  go_enter Tryz.func58, Tryz.ntmps58
  go_upto_region 1 with fail
  try rw [hW1]
  try rw [hb']
  clear hW1 hb' j0 j1 j2 j3 j4 j5 j6 j7 j8 j9 j10 j11 j12 j13 j14
  go_cut [5, 6] from 7 (fun v v' wx => v = .int .i64 c1 ∧ v' = .bool i1 ∧ ∃ A1 : LA, A1.g = A.g ∧ (∀ u, (A1.w u).g = (A.w u).g) ∧ LJ w0 wx A1 k1 (m + 2) ∧ wx.heap[b0]? = some (.cells #[.pointer (some ⟨A.g, 0, none⟩), .int .i64 ty, .int .i64 fl, .int .i64 st, .string da, .int .i64 pa, .int .i64 de, .bool ex, .int .i64 wt, .int .i64 co, .int .i64 la, p, .bool s, .pointer (some ⟨wa, 0, none⟩), .pointer (some ⟨bk, 0, none⟩)] 78 (0, 0)))
  case first =>
    as_aux_lemma =>
      have hIW : Below W1.heap.size W1 W1.drew := (Below.refl _ _).drew
      refine wp_region_held_drew (S := (fun V => V.cell? ⟨b0, 0, none⟩ = some (.pointer (some ⟨A.g, 0, none⟩)) ∧ V.cell? ⟨b0, 1, none⟩ = some (.int .i64 ty) ∧ V.cell? ⟨b0, 2, none⟩ = some (.int .i64 fl) ∧ V.cell? ⟨b0, 3, none⟩ = some (.int .i64 st) ∧ V.cell? ⟨b0, 4, none⟩ = some (.string da) ∧ V.cell? ⟨b0, 5, none⟩ = some (.int .i64 pa) ∧ V.cell? ⟨b0, 6, none⟩ = some (.int .i64 de) ∧ V.cell? ⟨b0, 7, none⟩ = some (.bool ex) ∧ V.cell? ⟨b0, 8, none⟩ = some (.int .i64 wt) ∧ V.cell? ⟨b0, 9, none⟩ = some (.int .i64 co) ∧ V.cell? ⟨b0, 10, none⟩ = some (.int .i64 la) ∧ V.cell? ⟨b0, 11, none⟩ = some p ∧ V.cell? ⟨b0, 12, none⟩ = some (.bool s) ∧ V.cell? ⟨b0, 13, none⟩ = some (.pointer (some ⟨wa, 0, none⟩)) ∧ V.cell? ⟨b0, 14, none⟩ = some (.pointer (some ⟨bk, 0, none⟩)))) (by kernel_rfl) (hSb.out _ ((hIW.block _ (heap_lt HL0.out.2)).trans HL0.out.2)) (fun hHeld => ?_)
      generalize hWg : World.drew _ = W2 at hIW hHeld ⊢
      clear hWg
      refine tkA (i := 0) (oi := ⟨some 8, .load 78 (.tmp 2), 78, "types.go:125", #[], none⟩) ?_
      try simp only [Act.put, lA, l0, lS]
      refine tkA (i := 1) (oi := ⟨some 9, .fieldAddr 78 (.tmp 2) 1, 0, "types.go:125", #[], none⟩) ?_
      try simp only [Act.put, lA, l0, lS]
      refine tkA (i := 2) (oi := ⟨some 10, .fieldAddr 31 (.tmp 9) 2, 0, "types.go:125", #[⟨1, .data⟩], none⟩) ?_
      try simp only [Act.put, lA, l0, lS]
      refine tkA (i := 3) (oi := ⟨some 11, .load 2 (.tmp 10), 2, "types.go:125", #[⟨2, .data⟩], none⟩) ?_
      try simp only [Act.put, lA, l0, lS]
      refine tkA (i := 4) (oi := ⟨some 12, .load 78 (.tmp 2), 78, "types.go:125", #[], none⟩) ?_
      try simp only [Act.put, lA, l0, lS]
      refine wpAnyH_ready (rs := [5]) (by kernel_rfl) (by simp) ?_
      refine AllReadyH.cons (o := ⟨some 13, .call { callee := Callee.value (.func 53), args := #[.tmp 12, .const (.int IntKind.i64 3), .const (.int IntKind.i64 4)], argTypes := #[78, 3, 3] }, 3, "types.go:125", #[⟨4, .data⟩], none⟩) rfl (fun K hK => ?_) AllReadyH.nil
      go_simp
      refine (HKd0.out _).mono ?_
      rintro e' W2x ⟨rfl, bX⟩
      have hW2x : Below W1.heap.size W1 W2x := hIW.trans (bX.mono hIW.size)
      clear bX
      go_wp2_with fail
      refine hK.out _ _ (hSb.out _ ((hW2x.block _ (heap_lt HL0.out.2)).trans HL0.out.2)) (fun hHeld => ?_)
      clear hK K
      try simp only [Act.put, lA, l0, lS]
      refine wpAnyH_ready (rs := [6]) (by kernel_rfl) (by simp) ?_
      refine AllReadyH.cons (o := ⟨some 14, .call { callee := Callee.value (.func 47), args := #[.tmp 8, .tmp 11, .tmp 13], argTypes := #[78, 2, 3] }, 97, "types.go:125", #[⟨0, .data⟩, ⟨3, .data⟩, ⟨5, .data⟩, ⟨5, .chain⟩], none⟩) rfl (fun K hK => ?_) AllReadyH.nil
      go_simp
      refine (HHp0.out _ (HL0.out.1.below hW2x)).mono ?_
      rintro e' W2xx ⟨rfl, A1, a1, a2, a3, a4⟩
      have hbz := a4 _ _ _ _ ((hW2x.block _ (heap_lt HL0.out.2)).trans HL0.out.2) ot78
      have HE : Hid (∃ A1 : LA, A1.g = A.g ∧ (∀ u, (A1.w u).g = (A.w u).g) ∧ LJ w0 W2xx A1 k1 (m + 2) ∧ W2xx.heap[b0]? = some (.cells #[.pointer (some ⟨A.g, 0, none⟩), .int .i64 ty, .int .i64 fl, .int .i64 st, .string da, .int .i64 pa, .int .i64 de, .bool ex, .int .i64 wt, .int .i64 co, .int .i64 la, p, .bool s, .pointer (some ⟨wa, 0, none⟩), .pointer (some ⟨bk, 0, none⟩)] 78 (0, 0))) := ⟨A1, a1, a2, a3, hbz⟩
      go_wp2_with fail
      refine hK.out _ _ (hSb.out _ hbz) (fun hHeld => ?_)
      clear hK K a1 a2 a3 a4 hbz
      try simp only [Act.put, lA, l0, lS]
      refine tkA (i := 7) (oi := ⟨some 7, .move (.tmp 14), 97, "types.go:125", #[⟨6, .data⟩], none⟩) ?_
      try simp only [Act.put, lA, l0, lS]
      refine tkA (i := 8) (oi := ⟨some 15, .extract (.tmp 7) 0, 2, "types.go:125", #[⟨7, .data⟩], none⟩) ?_
      try simp only [Act.put, lA, l0, lS]
      refine tkA (i := 9) (oi := ⟨some 16, .extract (.tmp 7) 1, 4, "types.go:125", #[⟨7, .data⟩, { on := 10, ground := Ground.gcOnly Departure.lateStores }], none⟩) ?_
      try simp only [Act.put, lA, l0, lS]
      refine tkA (i := 10) (oi := ⟨some 5, .assign (.tmp 15), 2, "types.go:125", #[⟨8, .data⟩, ⟨6, .chain⟩, ⟨0, .phase⟩, ⟨1, .phase⟩, ⟨2, .phase⟩, ⟨3, .phase⟩, ⟨4, .phase⟩, ⟨5, .phase⟩, ⟨6, .phase⟩, ⟨7, .phase⟩, ⟨8, .phase⟩, { on := 9, ground := Ground.textOnly Departure.lateStores }], none⟩) ?_
      try simp only [Act.put, lA, l0, lS]
      refine tkA (i := 11) (oi := ⟨some 6, .assign (.tmp 16), 4, "types.go:125", #[⟨9, .data⟩, ⟨10, .chain⟩, ⟨0, .phase⟩, ⟨1, .phase⟩, ⟨2, .phase⟩, ⟨3, .phase⟩, ⟨4, .phase⟩, ⟨5, .phase⟩, ⟨6, .phase⟩, ⟨7, .phase⟩, ⟨8, .phase⟩, ⟨9, .phase⟩, ⟨10, .phase⟩], none⟩) ?_
      try simp only [Act.put, lA, l0, lS]
      refine wpAnyH_done (by kernel_rfl) ?_ _
      clear hHeld
      go_wp2_with fail
      go_meet
      case rel => exact ⟨rfl, rfl, HE.out⟩
  case rest =>
    obtain ⟨rfl, rfl, A1, a1, a2, a3, a4⟩ := hcut
    have HL2 : Hid (LJ w0 wc A1 k1 (m + 2) ∧ wc.heap[b0]? = some (.cells #[.pointer (some ⟨A.g, 0, none⟩), .int .i64 ty, .int .i64 fl, .int .i64 st, .string da, .int .i64 pa, .int .i64 de, .bool ex, .int .i64 wt, .int .i64 co, .int .i64 la, p, .bool s, .pointer (some ⟨wa, 0, none⟩), .pointer (some ⟨bk, 0, none⟩)] 78 (0, 0))) := ⟨a3, a4⟩
    have HA : Hid (A1.g = A.g ∧ ∀ u, (A1.w u).g = (A.w u).g) := ⟨a1, a2⟩
    clear a1 a2 a3 a4 HL0 HKd0 HHp0
    generalize wc = V2 at HL2 ⊢
    by_cases hc : c1 = 0
    · subst hc
      have HX : Hid (R = if c2 = false then (k2, 3) else (k3, if c3 = true then 0 else 3)) := by show _ = _; rw [HR.out, if_neg (by simp)]
      obtain ⟨kk, hkk⟩ := HL2.out.1.at_q s (HRm.out rfl)
      obtain ⟨rv, hrv⟩ : ∃ v, (A1.w s).rm = v := ⟨_, rfl⟩
      obtain ⟨wv, hwv⟩ : ∃ v, (A1.w s).wb = v := ⟨_, rfl⟩
      have HT1 : Hid (∀ V, LJ w0 V A1 k1 (m + 2) → Calls Tryz.prog 76 #[.pointer (some ⟨rv, 0, none⟩), .int .i64 n] V fun e w' => e = .returned (.bool c2) ∧ LJ w0 w' A1 k2 (m + 2) ∧ KpO V w') := fun V hV => by
        have := hV.takeC s n
        rw [hrv, HC2.out] at this
        exact this
      have HT2 : Hid (∀ V, LJ w0 V A1 k2 (m + 2) → Calls Tryz.prog 76 #[.pointer (some ⟨kk, 0, none⟩), .int .i64 n] V fun e w' => e = .returned (.bool c3) ∧ LJ w0 w' A1 k3 (m + 2) ∧ KpO V w') := fun V hV => by
        have := hV.takeS s st n hkk
        rw [HC3.out.1, HC3.out.2] at this
        exact this
      have hSc : Hid (∀ (V : World) (kx : Lk), LJ w0 V A1 kx (m + 2) → V.heap[b0]? = some (.cells #[.pointer (some ⟨A.g, 0, none⟩), .int .i64 ty, .int .i64 fl, .int .i64 st, .string da, .int .i64 pa, .int .i64 de, .bool ex, .int .i64 wt, .int .i64 co, .int .i64 la, p, .bool s, .pointer (some ⟨wa, 0, none⟩), .pointer (some ⟨bk, 0, none⟩)] 78 (0, 0)) → (V.cell? ⟨b0, 0, none⟩ = some (.pointer (some ⟨A.g, 0, none⟩)) ∧ V.cell? ⟨b0, 1, none⟩ = some (.int .i64 ty) ∧ V.cell? ⟨b0, 2, none⟩ = some (.int .i64 fl) ∧ V.cell? ⟨b0, 3, none⟩ = some (.int .i64 st) ∧ V.cell? ⟨b0, 4, none⟩ = some (.string da) ∧ V.cell? ⟨b0, 5, none⟩ = some (.int .i64 pa) ∧ V.cell? ⟨b0, 6, none⟩ = some (.int .i64 de) ∧ V.cell? ⟨b0, 7, none⟩ = some (.bool ex) ∧ V.cell? ⟨b0, 8, none⟩ = some (.int .i64 wt) ∧ V.cell? ⟨b0, 9, none⟩ = some (.int .i64 co) ∧ V.cell? ⟨b0, 10, none⟩ = some (.int .i64 la) ∧ V.cell? ⟨b0, 11, none⟩ = some p ∧ V.cell? ⟨b0, 12, none⟩ = some (.bool s) ∧ V.cell? ⟨b0, 13, none⟩ = some (.pointer (some ⟨wa, 0, none⟩)) ∧ V.cell? ⟨b0, 14, none⟩ = some (.pointer (some ⟨bk, 0, none⟩))) ∧ V.cell? ⟨wa, 8, none⟩ = some (.pointer (some ⟨rv, 0, none⟩)) ∧ V.cell? ⟨wa, 9, none⟩ = some (.map (some wv)) ∧ (Instr.lookup 74 (.map (some wv)) (.int .i64 st) false).run Tryz.prog V = .ok (.pointer (some ⟨kk, 0, none⟩)) V) := fun V kx hV hbz => by
        have hc := (hV.wi s).cells
        have hlk := hV.lookS s HI.out hkk
        rw [hwv] at hlk
        rw [HA.out.2 s, ← HW.out] at hc
        unfold Wc at hc
        rw [hrv, hwv] at hc
        exact ⟨hSb.out V hbz, hc.2.2.2.2.2.2.2.2.1, hc.2.2.2.2.2.2.2.2.2.1, hlk⟩
      clear hkk hrv hwv HR
      go_upto_region 4 with fail
      cases c2
      · as_aux_lemma =>
          have hIW : LJ w0 V2.drew A1 k1 (m + 2) ∧ V2.drew.heap[b0]? = some (.cells #[.pointer (some ⟨A.g, 0, none⟩), .int .i64 ty, .int .i64 fl, .int .i64 st, .string da, .int .i64 pa, .int .i64 de, .bool ex, .int .i64 wt, .int .i64 co, .int .i64 la, p, .bool s, .pointer (some ⟨wa, 0, none⟩), .pointer (some ⟨bk, 0, none⟩)] 78 (0, 0)) := ⟨HL2.out.1.dr, HL2.out.2⟩
          refine wp_region_held_drew (S := (fun V => (V.cell? ⟨b0, 0, none⟩ = some (.pointer (some ⟨A.g, 0, none⟩)) ∧ V.cell? ⟨b0, 1, none⟩ = some (.int .i64 ty) ∧ V.cell? ⟨b0, 2, none⟩ = some (.int .i64 fl) ∧ V.cell? ⟨b0, 3, none⟩ = some (.int .i64 st) ∧ V.cell? ⟨b0, 4, none⟩ = some (.string da) ∧ V.cell? ⟨b0, 5, none⟩ = some (.int .i64 pa) ∧ V.cell? ⟨b0, 6, none⟩ = some (.int .i64 de) ∧ V.cell? ⟨b0, 7, none⟩ = some (.bool ex) ∧ V.cell? ⟨b0, 8, none⟩ = some (.int .i64 wt) ∧ V.cell? ⟨b0, 9, none⟩ = some (.int .i64 co) ∧ V.cell? ⟨b0, 10, none⟩ = some (.int .i64 la) ∧ V.cell? ⟨b0, 11, none⟩ = some p ∧ V.cell? ⟨b0, 12, none⟩ = some (.bool s) ∧ V.cell? ⟨b0, 13, none⟩ = some (.pointer (some ⟨wa, 0, none⟩)) ∧ V.cell? ⟨b0, 14, none⟩ = some (.pointer (some ⟨bk, 0, none⟩))) ∧ V.cell? ⟨wa, 8, none⟩ = some (.pointer (some ⟨rv, 0, none⟩)) ∧ V.cell? ⟨wa, 9, none⟩ = some (.map (some wv)) ∧ (Instr.lookup 74 (.map (some wv)) (.int .i64 st) false).run Tryz.prog V = .ok (.pointer (some ⟨kk, 0, none⟩)) V)) (by kernel_rfl) (hSc.out _ _ hIW.1 hIW.2) (fun hHeld => ?_)
          generalize hWg : World.drew _ = W2 at hIW hHeld ⊢
          clear hWg
          refine tkA (i := 0) (oi := ⟨some 20, .fieldAddr 78 (.tmp 2) 3, 0, "types.go:129", #[], none⟩) ?_
          try simp only [Act.put, lA, l0, lS]
          refine tkA (i := 1) (oi := ⟨some 21, .load 66 (.tmp 20), 66, "types.go:129", #[⟨0, .data⟩], none⟩) ?_
          try simp only [Act.put, lA, l0, lS]
          refine tkA (i := 2) (oi := ⟨some 22, .nilCheck (.tmp 21), 0, "types.go:129", #[⟨1, .data⟩], none⟩) ?_
          try simp only [Act.put, lA, l0, lS]
          refine tkA (i := 3) (oi := ⟨some 23, .fieldAddr 76 (.tmp 22) 8, 0, "types.go:129", #[⟨2, .data⟩], none⟩) ?_
          try simp only [Act.put, lA, l0, lS]
          refine tkA (i := 4) (oi := ⟨some 24, .load 73 (.tmp 23), 73, "types.go:129", #[⟨3, .data⟩], none⟩) ?_
          try simp only [Act.put, lA, l0, lS]
          refine tkA (i := 5) (oi := ⟨some 25, .move (.tmp 1), 2, "types.go:129", #[], none⟩) ?_
          try simp only [Act.put, lA, l0, lS]
          refine wpAnyH_ready (rs := [6]) (by kernel_rfl) (by simp) ?_
          refine AllReadyH.cons (o := ⟨some 26, .call { callee := Callee.value (.func 76), args := #[.tmp 24, .tmp 25], argTypes := #[73, 2] }, 4, "types.go:129", #[⟨4, .data⟩, ⟨5, .data⟩], none⟩) rfl (fun K hK => ?_) AllReadyH.nil
          go_simp
          refine (HT1.out _ hIW.1).mono ?_
          rintro e' W2x ⟨rfl, x1, x2⟩
          have hW2x := And.intro x1 (x2 _ _ _ _ hIW.2 ot78)
          clear x1 x2
          go_wp2_with fail
          refine hK.out _ _ (hSc.out _ _ hW2x.1 hW2x.2) (fun hHeld => ?_)
          clear hK K
          try simp only [Act.put, lA, l0, lS]
          refine tkA (i := 7) (oi := ⟨some 27, .unOp .not 4 (.tmp 26), 4, "types.go:129", #[⟨6, .data⟩], none⟩) ?_
          try simp only [Act.put, lA, l0, lS]
          refine tkA (i := 8) (oi := ⟨some 28, .move (.tmp 27), 4, "types.go:129", #[⟨7, .data⟩, ⟨6, .chain⟩], none⟩) ?_
          try simp only [Act.put, lA, l0, lS]
          refine wpAnyH_take (i := 9) (oi := ⟨some 29, .fieldAddr 78 (.tmp 2) 3, 0, "types.go:129", #[⟨8, .guard⟩], some (8, false)⟩) (v := undef) rfl (by kernel_rfl) (by kernel_rfl) (by kernel_rfl) (fun _ _ _ h => h) (Or.inr ⟨by rfl, rfl⟩) (by assumption) ?_
          try simp only [Act.put, lA, l0, lS]
          refine wpAnyH_take (i := 10) (oi := ⟨some 30, .load 66 (.tmp 29), 66, "types.go:129", #[⟨9, .data⟩, ⟨8, .guard⟩], some (8, false)⟩) (v := undef) rfl (by kernel_rfl) (by kernel_rfl) (by kernel_rfl) (fun _ _ _ h => h) (Or.inr ⟨by rfl, rfl⟩) (by assumption) ?_
          try simp only [Act.put, lA, l0, lS]
          refine wpAnyH_take (i := 11) (oi := ⟨some 31, .nilCheck (.tmp 30), 0, "types.go:129", #[⟨10, .data⟩, ⟨8, .guard⟩], some (8, false)⟩) (v := undef) rfl (by kernel_rfl) (by kernel_rfl) (by kernel_rfl) (fun _ _ _ h => h) (Or.inr ⟨by rfl, rfl⟩) (by assumption) ?_
          try simp only [Act.put, lA, l0, lS]
          refine wpAnyH_take (i := 12) (oi := ⟨some 32, .fieldAddr 76 (.tmp 31) 9, 0, "types.go:129", #[⟨11, .data⟩, ⟨8, .guard⟩], some (8, false)⟩) (v := undef) rfl (by kernel_rfl) (by kernel_rfl) (by kernel_rfl) (fun _ _ _ h => h) (Or.inr ⟨by rfl, rfl⟩) (by assumption) ?_
          try simp only [Act.put, lA, l0, lS]
          refine wpAnyH_take (i := 13) (oi := ⟨some 33, .load 74 (.tmp 32), 74, "types.go:129", #[⟨12, .data⟩, ⟨8, .guard⟩], some (8, false)⟩) (v := undef) rfl (by kernel_rfl) (by kernel_rfl) (by kernel_rfl) (fun _ _ _ h => h) (Or.inr ⟨by rfl, rfl⟩) (by assumption) ?_
          try simp only [Act.put, lA, l0, lS]
          refine wpAnyH_take (i := 14) (oi := ⟨some 34, .fieldAddr 78 (.tmp 2) 1, 0, "types.go:129", #[⟨8, .guard⟩], some (8, false)⟩) (v := undef) rfl (by kernel_rfl) (by kernel_rfl) (by kernel_rfl) (fun _ _ _ h => h) (Or.inr ⟨by rfl, rfl⟩) (by assumption) ?_
          try simp only [Act.put, lA, l0, lS]
          refine wpAnyH_take (i := 15) (oi := ⟨some 35, .fieldAddr 31 (.tmp 34) 2, 0, "types.go:129", #[⟨14, .data⟩, ⟨8, .guard⟩], some (8, false)⟩) (v := undef) rfl (by kernel_rfl) (by kernel_rfl) (by kernel_rfl) (fun _ _ _ h => h) (Or.inr ⟨by rfl, rfl⟩) (by assumption) ?_
          try simp only [Act.put, lA, l0, lS]
          refine wpAnyH_take (i := 16) (oi := ⟨some 36, .load 2 (.tmp 35), 2, "types.go:129", #[⟨15, .data⟩, ⟨8, .guard⟩], some (8, false)⟩) (v := undef) rfl (by kernel_rfl) (by kernel_rfl) (by kernel_rfl) (fun _ _ _ h => h) (Or.inr ⟨by rfl, rfl⟩) (by assumption) ?_
          try simp only [Act.put, lA, l0, lS]
          refine wpAnyH_take (i := 17) (oi := ⟨some 37, .lookup 74 (.tmp 33) (.tmp 36) false, 73, "types.go:129", #[⟨13, .data⟩, ⟨16, .data⟩, ⟨8, .guard⟩], some (8, false)⟩) (v := undef) rfl (by kernel_rfl) (by kernel_rfl) (by kernel_rfl) (fun _ _ _ h => h) (Or.inr ⟨by rfl, rfl⟩) (by assumption) ?_
          try simp only [Act.put, lA, l0, lS]
          refine wpAnyH_take (i := 18) (oi := ⟨some 38, .move (.tmp 1), 2, "types.go:129", #[⟨8, .guard⟩], some (8, false)⟩) (v := undef) rfl (by kernel_rfl) (by kernel_rfl) (by kernel_rfl) (fun _ _ _ h => h) (Or.inr ⟨by rfl, rfl⟩) (by assumption) ?_
          try simp only [Act.put, lA, l0, lS]
          refine wpAnyH_take (i := 19) (oi := ⟨some 39, .call { callee := Callee.value (.func 76), args := #[.tmp 37, .tmp 38], argTypes := #[73, 2] }, 4, "types.go:129", #[⟨17, .data⟩, ⟨18, .data⟩, ⟨8, .chain⟩, ⟨8, .guard⟩], some (8, false)⟩) (v := undef) rfl (by kernel_rfl) (by kernel_rfl) (by kernel_rfl) (fun _ _ _ h => h) (Or.inr ⟨by rfl, rfl⟩) (by assumption) ?_
          try simp only [Act.put, lA, l0, lS]
          refine wpAnyH_take (i := 20) (oi := ⟨some 40, .unOp .not 4 (.tmp 39), 4, "types.go:129", #[⟨19, .data⟩, ⟨8, .guard⟩], some (8, false)⟩) (v := undef) rfl (by kernel_rfl) (by kernel_rfl) (by kernel_rfl) (fun _ _ _ h => h) (Or.inr ⟨by rfl, rfl⟩) (by assumption) ?_
          try simp only [Act.put, lA, l0, lS]
          refine tkA (i := 21) (oi := ⟨some 41, .pick (.tmp 28) (.const (.bool true)) (.tmp 40), 4, "types.go:129", #[⟨8, .data⟩, ⟨20, .data⟩], none⟩) ?_
          try simp only [Act.put, lA, l0, lS]
          refine wpAnyH_done (by kernel_rfl) ?_ _
          have HE := hid hW2x.1
          clear hHeld hW2x
          have HQ : Hid (R = (k2, 3)) := by show _ = _; rw [HX.out, if_pos (by simp)]
          go_wp2_with fail
          go_ret
          exact ⟨by rw [HQ.out]; rfl, A1, HA.out.1, (by first | exact HA.out.2 | exact ⟨HA.out.2 _, HA.out.2 _⟩), by rw [HQ.out]; exact HE.out.more (by omega)⟩
      · as_aux_lemma =>
          have hIW : LJ w0 V2.drew A1 k1 (m + 2) ∧ V2.drew.heap[b0]? = some (.cells #[.pointer (some ⟨A.g, 0, none⟩), .int .i64 ty, .int .i64 fl, .int .i64 st, .string da, .int .i64 pa, .int .i64 de, .bool ex, .int .i64 wt, .int .i64 co, .int .i64 la, p, .bool s, .pointer (some ⟨wa, 0, none⟩), .pointer (some ⟨bk, 0, none⟩)] 78 (0, 0)) := ⟨HL2.out.1.dr, HL2.out.2⟩
          refine wp_region_held_drew (S := (fun V => (V.cell? ⟨b0, 0, none⟩ = some (.pointer (some ⟨A.g, 0, none⟩)) ∧ V.cell? ⟨b0, 1, none⟩ = some (.int .i64 ty) ∧ V.cell? ⟨b0, 2, none⟩ = some (.int .i64 fl) ∧ V.cell? ⟨b0, 3, none⟩ = some (.int .i64 st) ∧ V.cell? ⟨b0, 4, none⟩ = some (.string da) ∧ V.cell? ⟨b0, 5, none⟩ = some (.int .i64 pa) ∧ V.cell? ⟨b0, 6, none⟩ = some (.int .i64 de) ∧ V.cell? ⟨b0, 7, none⟩ = some (.bool ex) ∧ V.cell? ⟨b0, 8, none⟩ = some (.int .i64 wt) ∧ V.cell? ⟨b0, 9, none⟩ = some (.int .i64 co) ∧ V.cell? ⟨b0, 10, none⟩ = some (.int .i64 la) ∧ V.cell? ⟨b0, 11, none⟩ = some p ∧ V.cell? ⟨b0, 12, none⟩ = some (.bool s) ∧ V.cell? ⟨b0, 13, none⟩ = some (.pointer (some ⟨wa, 0, none⟩)) ∧ V.cell? ⟨b0, 14, none⟩ = some (.pointer (some ⟨bk, 0, none⟩))) ∧ V.cell? ⟨wa, 8, none⟩ = some (.pointer (some ⟨rv, 0, none⟩)) ∧ V.cell? ⟨wa, 9, none⟩ = some (.map (some wv)) ∧ (Instr.lookup 74 (.map (some wv)) (.int .i64 st) false).run Tryz.prog V = .ok (.pointer (some ⟨kk, 0, none⟩)) V)) (by kernel_rfl) (hSc.out _ _ hIW.1 hIW.2) (fun hHeld => ?_)
          generalize hWg : World.drew _ = W2 at hIW hHeld ⊢
          clear hWg
          refine tkA (i := 0) (oi := ⟨some 20, .fieldAddr 78 (.tmp 2) 3, 0, "types.go:129", #[], none⟩) ?_
          try simp only [Act.put, lA, l0, lS]
          refine tkA (i := 1) (oi := ⟨some 21, .load 66 (.tmp 20), 66, "types.go:129", #[⟨0, .data⟩], none⟩) ?_
          try simp only [Act.put, lA, l0, lS]
          refine tkA (i := 2) (oi := ⟨some 22, .nilCheck (.tmp 21), 0, "types.go:129", #[⟨1, .data⟩], none⟩) ?_
          try simp only [Act.put, lA, l0, lS]
          refine tkA (i := 3) (oi := ⟨some 23, .fieldAddr 76 (.tmp 22) 8, 0, "types.go:129", #[⟨2, .data⟩], none⟩) ?_
          try simp only [Act.put, lA, l0, lS]
          refine tkA (i := 4) (oi := ⟨some 24, .load 73 (.tmp 23), 73, "types.go:129", #[⟨3, .data⟩], none⟩) ?_
          try simp only [Act.put, lA, l0, lS]
          refine tkA (i := 5) (oi := ⟨some 25, .move (.tmp 1), 2, "types.go:129", #[], none⟩) ?_
          try simp only [Act.put, lA, l0, lS]
          refine wpAnyH_ready (rs := [6]) (by kernel_rfl) (by simp) ?_
          refine AllReadyH.cons (o := ⟨some 26, .call { callee := Callee.value (.func 76), args := #[.tmp 24, .tmp 25], argTypes := #[73, 2] }, 4, "types.go:129", #[⟨4, .data⟩, ⟨5, .data⟩], none⟩) rfl (fun K hK => ?_) AllReadyH.nil
          go_simp
          refine (HT1.out _ hIW.1).mono ?_
          rintro e' W2x ⟨rfl, x1, x2⟩
          have hW2x := And.intro x1 (x2 _ _ _ _ hIW.2 ot78)
          clear x1 x2
          go_wp2_with fail
          refine hK.out _ _ (hSc.out _ _ hW2x.1 hW2x.2) (fun hHeld => ?_)
          clear hK K
          try simp only [Act.put, lA, l0, lS]
          refine tkA (i := 7) (oi := ⟨some 27, .unOp .not 4 (.tmp 26), 4, "types.go:129", #[⟨6, .data⟩], none⟩) ?_
          try simp only [Act.put, lA, l0, lS]
          refine tkA (i := 8) (oi := ⟨some 28, .move (.tmp 27), 4, "types.go:129", #[⟨7, .data⟩, ⟨6, .chain⟩], none⟩) ?_
          try simp only [Act.put, lA, l0, lS]
          refine tkA (i := 9) (oi := ⟨some 29, .fieldAddr 78 (.tmp 2) 3, 0, "types.go:129", #[⟨8, .guard⟩], some (8, false)⟩) ?_
          try simp only [Act.put, lA, l0, lS]
          refine tkA (i := 10) (oi := ⟨some 30, .load 66 (.tmp 29), 66, "types.go:129", #[⟨9, .data⟩, ⟨8, .guard⟩], some (8, false)⟩) ?_
          try simp only [Act.put, lA, l0, lS]
          refine tkA (i := 11) (oi := ⟨some 31, .nilCheck (.tmp 30), 0, "types.go:129", #[⟨10, .data⟩, ⟨8, .guard⟩], some (8, false)⟩) ?_
          try simp only [Act.put, lA, l0, lS]
          refine tkA (i := 12) (oi := ⟨some 32, .fieldAddr 76 (.tmp 31) 9, 0, "types.go:129", #[⟨11, .data⟩, ⟨8, .guard⟩], some (8, false)⟩) ?_
          try simp only [Act.put, lA, l0, lS]
          refine tkA (i := 13) (oi := ⟨some 33, .load 74 (.tmp 32), 74, "types.go:129", #[⟨12, .data⟩, ⟨8, .guard⟩], some (8, false)⟩) ?_
          try simp only [Act.put, lA, l0, lS]
          refine tkA (i := 14) (oi := ⟨some 34, .fieldAddr 78 (.tmp 2) 1, 0, "types.go:129", #[⟨8, .guard⟩], some (8, false)⟩) ?_
          try simp only [Act.put, lA, l0, lS]
          refine tkA (i := 15) (oi := ⟨some 35, .fieldAddr 31 (.tmp 34) 2, 0, "types.go:129", #[⟨14, .data⟩, ⟨8, .guard⟩], some (8, false)⟩) ?_
          try simp only [Act.put, lA, l0, lS]
          refine tkA (i := 16) (oi := ⟨some 36, .load 2 (.tmp 35), 2, "types.go:129", #[⟨15, .data⟩, ⟨8, .guard⟩], some (8, false)⟩) ?_
          try simp only [Act.put, lA, l0, lS]
          refine tkA (i := 17) (oi := ⟨some 37, .lookup 74 (.tmp 33) (.tmp 36) false, 73, "types.go:129", #[⟨13, .data⟩, ⟨16, .data⟩, ⟨8, .guard⟩], some (8, false)⟩) ?_
          try simp only [Act.put, lA, l0, lS]
          refine tkA (i := 18) (oi := ⟨some 38, .move (.tmp 1), 2, "types.go:129", #[⟨8, .guard⟩], some (8, false)⟩) ?_
          try simp only [Act.put, lA, l0, lS]
          refine wpAnyH_ready (rs := [19]) (by kernel_rfl) (by simp) ?_
          refine AllReadyH.cons (o := ⟨some 39, .call { callee := Callee.value (.func 76), args := #[.tmp 37, .tmp 38], argTypes := #[73, 2] }, 4, "types.go:129", #[⟨17, .data⟩, ⟨18, .data⟩, ⟨8, .chain⟩, ⟨8, .guard⟩], some (8, false)⟩) rfl (fun K hK => ?_) AllReadyH.nil
          refine ite_take (by rfl) ?_
          go_simp
          refine (HT2.out _ hW2x.1).mono ?_
          rintro e' W2xx ⟨rfl, x1, x2⟩
          have hW2xx := And.intro x1 (x2 _ _ _ _ hW2x.2 ot78)
          clear x1 x2
          go_wp2_with fail
          refine hK.out _ _ (hSc.out _ _ hW2xx.1 hW2xx.2) (fun hHeld => ?_)
          clear hK K
          try simp only [Act.put, lA, l0, lS]
          refine tkA (i := 20) (oi := ⟨some 40, .unOp .not 4 (.tmp 39), 4, "types.go:129", #[⟨19, .data⟩, ⟨8, .guard⟩], some (8, false)⟩) ?_
          try simp only [Act.put, lA, l0, lS]
          refine tkA (i := 21) (oi := ⟨some 41, .pick (.tmp 28) (.const (.bool true)) (.tmp 40), 4, "types.go:129", #[⟨8, .data⟩, ⟨20, .data⟩], none⟩) ?_
          try simp only [Act.put, lA, l0, lS]
          refine wpAnyH_done (by kernel_rfl) ?_ _
          have HE := hid hW2xx.1
          clear hHeld hW2xx
          cases c3
          · have HQ : Hid (R = (k3, 3)) := by show _ = _; rw [HX.out, if_neg (by simp), if_neg (by simp)]
            go_wp2_with fail
            go_ret
            exact ⟨by rw [HQ.out]; rfl, A1, HA.out.1, (by first | exact HA.out.2 | exact ⟨HA.out.2 _, HA.out.2 _⟩), by rw [HQ.out]; exact HE.out.more (by omega)⟩
          · have HQ : Hid (R = (k3, 0)) := by show _ = _; rw [HX.out, if_neg (by simp), if_pos (by simp)]
            go_wp2_with fail
            go_ret
            exact ⟨by rw [HQ.out]; rfl, A1, HA.out.1, (by first | exact HA.out.2 | exact ⟨HA.out.2 _, HA.out.2 _⟩), by rw [HQ.out]; exact HE.out.more (by omega)⟩
    · have HQ : Hid (R = (k1, c1)) := by show _ = _; rw [HR.out, if_pos hc]
      have hcb : (c1 == 0) = false := beq_eq_false_iff_ne.2 hc
      go_wp2_with fail
      go_ret
      exact ⟨by rw [HQ.out]; rfl, A1, HA.out.1, (by first | exact HA.out.2 | exact ⟨HA.out.2 _, HA.out.2 _⟩), by rw [HQ.out]; exact HL2.out.1.more (by omega)⟩
end Go.Proofs.YtfmljlflnpmceaaGreatDoor
