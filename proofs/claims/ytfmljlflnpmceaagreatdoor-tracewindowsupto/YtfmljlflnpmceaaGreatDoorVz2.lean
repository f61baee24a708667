import Derived.Test.YtfmljlflnpmceaaGreatDoorVa
import Derived.Test.YtfmljlflnpmceaaGreatDoorVz1
import Derived.Deep.RegionHeld3
import Derived.Deep.Cut
/- A stream's window is born. -/
namespace Go.Proofs.YtfmljlflnpmceaaGreatDoor
open Go.RowKit
set_option linter.unusedVariables false
set_option linter.unusedSimpArgs false
theorem field92 (a b c d e f : Value) (W : World) : (Instr.field 92 (.agg #[a, b, c, d, e, f]) 3).run Tryz.prog W = .ok d W := by
  simp [Instr.field, run_underlying Tryz.underlying92, part, Tryz.isAgg2, asAgg]
theorem look_put {L : Mp} (hs : Srt L) (k v j : Int) : look (putm L k v) j = if j = k then some v else look L j := look_putm hs k v j
theorem WI.born {w V wz : World} {a : WA} {x : Wy} {m kk : Nat} {id n : Int} (h : WI w a x m) (hV : Below w.heap.size w V) (hk : Wd V kk (cl n)) (hkk : w.heap.size ≤ kk) (hm : MV wz a.wb (m + 1) (fun j => if j = id then some (.pointer (some ⟨kk, 0, none⟩)) else qG a.q j)) (hks : Ks (fun k => k = a.wb) V wz) :
    WI wz { a with q := fun j => if j = id then some kk else a.q j } { x with rw := putm x.rw id (cl n) } (m + 1) ∧ Ks (fun j => j = a.wb) w wz := by
  have hW := h.below hV
  have ho : ∀ k, k < V.heap.size → k ≠ a.wb → wz.heap[k]? = V.heap[k]? := fun k h1 h2 => hks.block k h1 h2
  have c : ∀ {k : Nat} {cc : Array Value} {t : TypeId} {fz : Nat × Nat}, V.heap[k]? = some (.cells cc t fz) → wz.heap[k]? = V.heap[k]? := fun hb => ho _ (heap_lt hb) (hW.rw.ne hb)
  refine ⟨⟨(c hW.blk).trans hW.blk, hW.pg.same fun k hk => ?_, (hW.rs.stays (ho _ hW.rs.lt hW.ne)).more (by omega), ⟨(c hW.bk.blk).trans hW.bk.blk, hW.bk.row.stays fun k hk _ => ?_, hW.bk.len⟩, (c hW.rm).trans hW.rm, hW.rmB, ?_, fun j => ?_, fun j k hq => ?_, fun i j k h1 h2 => ?_, fun j k hq => ?_, h.srt.putm _ _, h.ne⟩, ⟨hks.os.trans hV.os, hks.tape.trans hV.tape, hks.output.trans hV.output, Nat.le_trans hV.size hks.size, fun k h1 h2 => (hks.block k (Nat.lt_of_lt_of_le h1 hV.size) h2).trans (hV.block k h1)⟩⟩
  · obtain ⟨_, cc, hc⟩ := hW.pg.lt k hk
    exact c hc
  · obtain ⟨cc, hc⟩ := bk_row_ty hW.bk hk
    exact c hc
  · have e : (fun j => if j = id then some (Value.pointer (some ⟨kk, 0, none⟩)) else qG a.q j) = qG (fun j => if j = id then some kk else a.q j) := by
      funext j
      unfold qG
      by_cases e : j = id <;> simp [e]
    rw [← e]
    exact hm
  · show (look (putm x.rw id (cl n)) j).isSome = _
    rw [look_put h.srt]
    by_cases e : j = id
    · simp [e]
    · simp [e, h.rq]
  · show ∃ y, look (putm x.rw id (cl n)) j = some y ∧ _
    rw [look_put h.srt]
    by_cases e : j = id
    · simp only [e, if_true, Option.some.injEq] at hq
      subst hq
      exact ⟨cl n, by simp [e], (c hk).trans hk, cl_in n⟩
    · simp only [e, if_false] at hq
      obtain ⟨y, h1, h2, h3⟩ := hW.rd j k hq
      exact ⟨y, by simp [e, h1], (c h2).trans h2, h3⟩
  · simp only at h1 h2
    by_cases e1 : i = id <;> by_cases e2 : j = id
    · rw [e1, e2]
    · simp only [e1, e2, if_true, if_false, Option.some.injEq] at h1 h2
      obtain ⟨y, _, hw, _⟩ := h.rd j k h2
      have := hw.lt
      omega
    · simp only [e1, e2, if_true, if_false, Option.some.injEq] at h1 h2
      obtain ⟨y, _, hw, _⟩ := h.rd i k h1
      have := hw.lt
      omega
    · simp only [e1, e2, if_false] at h1 h2
      exact h.inj i j k h1 h2
  · simp only at hq
    by_cases e : j = id
    · simp only [e, if_true, Option.some.injEq] at hq
      have := h.rm.lt
      show k ≠ a.rm
      omega
    · simp only [e, if_false] at hq
      exact h.nr j k hq
set_option maxRecDepth 100000 in
set_option maxHeartbeats 8000000 in
theorem bear_any (a : WA) (x : Wy) (m : Nat) (id : Int) (w : World) (h : WI w a x m) (hid : I64 id) (hm : m < maxLen) : Calls Tryz.prog 65 #[.pointer (some ⟨a.g, 0, none⟩), .int .i64 id] w fun e w' => e = .returned (.tuple #[]) ∧ ∃ kk, w.heap.size ≤ kk ∧ WI w' { a with q := fun j => if j = id then some kk else a.q j } { x with rw := putm x.rw id (cl x.ac.win) } (m + 1) ∧ Ks (fun j => j = a.wb) w w' := by
  have HW : Hid (WI w a x m) := h
  have HI : Hid (I64 id) := hid
  have HM : Hid (m < maxLen) := hm
  have HAc : Hid (∀ V, Below w.heap.size w V → Calls Tryz.prog 37 #[.pointer (some ⟨a.b, 0, none⟩)] V fun e w' => e = .returned (.agg x.ac.a) ∧ Below V.heap.size V w') := fun V hV => acked_any V a.b x.cl x.ac a.bv x.wt (h.below hV).bk
  have HNw : Hid (∀ V, Calls Tryz.prog 35 #[.int .i64 x.ac.win] V fun e w' => ∃ b, e = .returned (.pointer (some ⟨b, 0, none⟩)) ∧ Wd w' b (cl x.ac.win) ∧ V.heap.size ≤ b ∧ Below V.heap.size V w') := fun V => wnew_any _ V
  have hS : Hid (∀ V, Below w.heap.size w V → V.cell? ⟨a.g, 7, none⟩ = some (.pointer (some ⟨a.b, 0, none⟩)) ∧ V.cell? ⟨a.g, 9, none⟩ = some (.map (some a.wb))) := fun V hV => ⟨(h.below hV).cells.2.2.2.2.2.2.2.1, (h.below hV).cells.2.2.2.2.2.2.2.2.2.1⟩
  clear h hid hm
  go_enter Tryz.func65, Tryz.ntmps65
  go_upto_region 0 with fail
  have hIW : Below w.heap.size w w.drew := (Below.refl _ _).drew
  refine wp_region_held_drew (S := (fun V => V.cell? ⟨a.g, 7, none⟩ = some (.pointer (some ⟨a.b, 0, none⟩)) ∧ V.cell? ⟨a.g, 9, none⟩ = some (.map (some a.wb)))) (by kernel_rfl) (hS.out _ hIW) (fun hHeld => ?_)
  generalize hWg : World.drew _ = W0 at hIW hHeld ⊢
  clear hWg
  refine tkA (i := 0) (oi := ⟨some 4, .move (.tmp 0), 66, "trace.go:156", #[], none⟩) ?_
  try simp only [Act.put, lA, l0, lS]
  refine tkA (i := 1) (oi := ⟨some 5, .nilCheck (.tmp 4), 0, "trace.go:156", #[⟨0, .data⟩], none⟩) ?_
  try simp only [Act.put, lA, l0, lS]
  refine tkA (i := 2) (oi := ⟨some 6, .fieldAddr 76 (.tmp 5) 9, 0, "trace.go:156", #[⟨1, .data⟩], none⟩) ?_
  try simp only [Act.put, lA, l0, lS]
  refine tkA (i := 3) (oi := ⟨some 7, .load 74 (.tmp 6), 74, "trace.go:156", #[⟨2, .data⟩], none⟩) ?_
  try simp only [Act.put, lA, l0, lS]
  refine tkA (i := 4) (oi := ⟨some 8, .move (.tmp 1), 2, "trace.go:156", #[], none⟩) ?_
  try simp only [Act.put, lA, l0, lS]
  refine tkA (i := 5) (oi := ⟨some 9, .move (.tmp 0), 66, "trace.go:156", #[], none⟩) ?_
  try simp only [Act.put, lA, l0, lS]
  refine tkA (i := 6) (oi := ⟨some 10, .nilCheck (.tmp 9), 0, "trace.go:156", #[⟨5, .data⟩], none⟩) ?_
  try simp only [Act.put, lA, l0, lS]
  refine tkA (i := 7) (oi := ⟨some 11, .fieldAddr 76 (.tmp 10) 7, 0, "trace.go:156", #[⟨6, .data⟩], none⟩) ?_
  try simp only [Act.put, lA, l0, lS]
  refine tkA (i := 8) (oi := ⟨some 12, .load 72 (.tmp 11), 72, "trace.go:156", #[⟨7, .data⟩], none⟩) ?_
  try simp only [Act.put, lA, l0, lS]
  refine wpAnyH_ready (rs := [9]) (by kernel_rfl) (by simp) ?_
  refine AllReadyH.cons (o := ⟨some 13, .call { callee := Callee.value (.func 37), args := #[.tmp 12], argTypes := #[72] }, 92, "trace.go:156", #[⟨8, .data⟩], none⟩) rfl (fun K hK => ?_) AllReadyH.nil
  go_simp
  refine (HAc.out _ hIW).mono ?_
  rintro e' W0x ⟨rfl, bX⟩
  have hW0x : Below w.heap.size w W0x := hIW.trans (bX.mono hIW.size)
  clear bX
  simp only [St.a]
  go_wp2_with fail
  refine hK.out _ _ (hS.out _ hW0x) (fun hHeld => ?_)
  clear hK K
  try simp only [Act.put, lA, l0, lS]
  refine tkH (i := 10) (oi := ⟨some 14, .field 92 (.tmp 13) 3, 2, "trace.go:156", #[⟨9, .data⟩], none⟩) (v := ?vv10) ?hy10 ?_
  case hy10 => (intro w hSw; (try dsimp only at hSw); go_simp; rw [field92]; rfl)
  try simp only [Act.put, lA, l0, lS]
  refine wpAnyH_ready (rs := [11]) (by kernel_rfl) (by simp) ?_
  refine AllReadyH.cons (o := ⟨some 15, .call { callee := Callee.value (.func 35), args := #[.tmp 14], argTypes := #[2] }, 73, "trace.go:156", #[⟨10, .data⟩, ⟨9, .chain⟩], none⟩) rfl (fun K hK => ?_) AllReadyH.nil
  go_simp
  refine (HNw.out _).mono ?_
  rintro e' W0xx ⟨kk, rfl, hWd, hkk, bX⟩
  have hW0xx : Below w.heap.size w W0xx := hW0x.trans (bX.mono hW0x.size)
  have HKK : Hid (Wd W0xx kk (cl x.ac.win) ∧ w.heap.size ≤ kk) := ⟨hWd, Nat.le_trans hW0x.size hkk⟩
  clear bX hWd hkk
  go_wp2_with fail
  refine hK.out _ _ (hS.out _ hW0xx) (fun hHeld => ?_)
  clear hK K
  try simp only [Act.put, lA, l0, lS]
  refine wpAnyH_ready (rs := [12]) (by kernel_rfl) (by simp) ?_
  refine AllReadyH.cons (o := ⟨none, .mapUpdate 74 (.tmp 7) (.tmp 8) (.tmp 15), 0, "trace.go:156", #[⟨3, .data⟩, ⟨4, .data⟩, ⟨11, .data⟩, ⟨11, .chain⟩, ⟨0, .phase⟩, ⟨1, .phase⟩, ⟨2, .phase⟩, ⟨3, .phase⟩, ⟨4, .phase⟩, ⟨5, .phase⟩, ⟨6, .phase⟩, ⟨7, .phase⟩, ⟨8, .phase⟩, ⟨9, .phase⟩, ⟨10, .phase⟩, ⟨11, .phase⟩], none⟩) rfl (fun K hK => ?_) AllReadyH.nil
  obtain ⟨wz, hput, hMV, hKs⟩ := (HW.out.rw.below hW0xx).put HM.out (t := 74) (e := 73) Tryz.underlying74 HI.out (.pointer (some ⟨kk, 0, none⟩))
  have HE : Hid (∃ kk, w.heap.size ≤ kk ∧ WI wz { a with q := fun j => if j = id then some kk else a.q j } { x with rw := putm x.rw id (cl x.ac.win) } (m + 1) ∧ Ks (fun j => j = a.wb) w wz) := ⟨kk, HKK.out.2, HW.out.born hW0xx HKK.out.1 HKK.out.2 hMV hKs⟩
  have hSz : wz.cell? ⟨a.g, 7, none⟩ = some (.pointer (some ⟨a.b, 0, none⟩)) ∧ wz.cell? ⟨a.g, 9, none⟩ = some (.map (some a.wb)) := by
    have h1 := HE.out
    obtain ⟨k', _, hw, _⟩ := h1
    exact ⟨hw.cells.2.2.2.2.2.2.2.1, hw.cells.2.2.2.2.2.2.2.2.2.1⟩
  clear hMV hKs
  go_simp
  go_wp2_with fail
  refine hK.out _ _ hSz (fun hHeld => ?_)
  clear hK K hput
  try simp only [Act.put, lA, l0, lS]
  refine wpAnyH_done (by kernel_rfl) ?_ _
  clear hHeld hS
  go_wp2_with fail
  first | go_end0 | (refine bodyPost_ret (results_none rfl _ _ _) rfl ?_)
  exact ⟨rfl, HE.out⟩
end Go.Proofs.YtfmljlflnpmceaaGreatDoor
/- All that Check keeps, in memory: the table of streams and both directions, apart. -/
namespace Go.Proofs.YtfmljlflnpmceaaGreatDoor
open Go.RowKit
set_option linter.unusedVariables false
set_option linter.unusedSimpArgs false
/-- where it lies -/
structure LA where
  g : Nat
  p : Nat
  mb : Nat
  w : Bool → WA
def LB (A : LA) (j : Nat) : Prop := j = A.g ∨ j = A.p ∨ j = A.mb ∨ ∃ s, WB (A.w s) j
def lookc (A : LA) : Array Value := #[.pointer (some ⟨A.p, 0, none⟩), .pointer (some ⟨(A.w true).g, 0, none⟩), .pointer (some ⟨(A.w false).g, 0, none⟩)]
structure LJ (w0 w : World) (A : LA) (k : Lk) (m : Nat) : Prop where
  blk : w.heap[A.g]? = some (.cells (lookc A) 69 (0, 0))
  ti : TI w A.p A.mb k.T
  wi : ∀ s, WI w (A.w s) (k.wy s) m
  ap : ∀ j, WB (A.w true) j → ¬ WB (A.w false) j
  at' : ∀ s j, WB (A.w s) j → j ≠ A.g ∧ j ≠ A.p ∧ j ≠ A.mb
  lo : ∀ j, LB A j → w0.heap.size ≤ j
  bel : Below w0.heap.size w0 w
/-- every stream that the table holds has its windows -/
def Lv (k : Lk) : Prop := ∀ (s : Bool) (id v : Int), look k.T.L id = some v → (look (k.wy s).rw id).isSome = true
variable {w0 w w' : World} {A : LA} {k : Lk} {m : Nat}
theorem LJ.gp (h : LJ w0 w A k m) : A.g ≠ A.p ∧ A.g ≠ A.mb ∧ A.p ≠ A.mb := by
  refine ⟨ty_ne h.blk h.ti.blk (by decide), fun e => ?_, h.ti.ne⟩
  obtain ⟨es, clock, h1, _⟩ := h.ti.mp
  rw [← e, h.blk] at h1
  cases h1
theorem LJ.lt (h : LJ w0 w A k m) {j : Nat} (hj : LB A j) : j < w.heap.size := by
  rcases hj with rfl | rfl | rfl | ⟨s, hj⟩
  · exact heap_lt h.blk
  · exact h.ti.lt
  · exact h.ti.mlt
  · exact (h.wi s).lt hj
theorem LJ.below (h : LJ w0 w A k m) (hb : Below w.heap.size w w') : LJ w0 w' A k m :=
  ⟨(hb.block _ (heap_lt h.blk)).trans h.blk, h.ti.below hb, fun s => (h.wi s).below hb, h.ap, h.at', h.lo, h.bel.trans (hb.mono h.bel.size)⟩
theorem LJ.more {m' : Nat} (h : LJ w0 w A k m) (hm : m ≤ m') : LJ w0 w A k m' := ⟨h.blk, h.ti, fun s => (h.wi s).more hm, h.ap, h.at', h.lo, h.bel⟩
/-- the table does something -/
theorem LJ.tab {T' : Tb} (h : LJ w0 w A k m) (ht : TI w' A.p A.mb T') (hk : K2s A.p A.mb w w') : LJ w0 w' A ⟨T', k.wy⟩ m :=
  ⟨(hk.block _ (heap_lt h.blk) fun e => e.elim h.gp.1 h.gp.2.1).trans h.blk, ht, fun s => (h.wi s).keep fun j hj => hk.block j ((h.wi s).lt hj) fun e => e.elim (h.at' s j hj).2.1 (h.at' s j hj).2.2, h.ap, h.at', h.lo, h.bel.trans (hk.below h.bel.size fun i hi e => by
    have := e.elim (fun e => h.lo i (.inr (.inl e))) (fun e => h.lo i (.inr (.inr (.inl e))))
    omega)⟩
/-- a direction's place anew -/
def LA.upd (A : LA) (s : Bool) (a : WA) : LA := ⟨A.g, A.p, A.mb, fun t => if t = s then a else A.w t⟩
theorem WB.other {A : LA} (hap : ∀ j, WB (A.w true) j → ¬ WB (A.w false) j) {s t : Bool} (hst : t ≠ s) {j : Nat} (h1 : WB (A.w s) j) : ¬ WB (A.w t) j := by
  cases s <;> cases t
  · exact absurd rfl hst
  · exact fun h2 => hap j h2 h1
  · exact hap j h1
  · exact absurd rfl hst
/-- a direction does something: its own blocks alone are written, what it has new is new -/
theorem LJ.way {s : Bool} {a : WA} {x : Wy} (h : LJ w0 w A k m) (hx : WI w' a x m) (hg : a.g = (A.w s).g) (hk : Ks (WB (A.w s)) w w') (hn : ∀ j, WB a j → WB (A.w s) j ∨ w.heap.size ≤ j) : LJ w0 w' (A.upd s a) (k.upd s fun _ => x) m := by
  have hold : ∀ t j, t ≠ s → WB (A.w t) j → w'.heap[j]? = w.heap[j]? := fun t j ht hj => hk.block j ((h.wi t).lt hj) fun e => WB.other h.ap ht e hj
  have hap2 : ∀ t j, t ≠ s → WB (A.w t) j → ¬ WB a j := fun t j ht hj ha => (hn j ha).elim (fun e => WB.other h.ap ht e hj) fun e => by have := (h.wi t).lt hj; omega
  refine ⟨?_, ?_, fun t => ?_, fun j h1 h2 => ?_, fun t j hj => ?_, fun j hj => ?_, h.bel.trans (hk.below h.bel.size fun i hi e => by have := h.lo i (.inr (.inr (.inr ⟨s, e⟩))); omega)⟩
  · have e : lookc (A.upd s a) = lookc A := by
      cases s <;> simp [lookc, LA.upd, hg]
    rw [e]
    exact (hk.block _ (heap_lt h.blk) fun e => (h.at' s _ e).1 rfl).trans h.blk
  · exact h.ti.stays (hk.block _ h.ti.lt fun e => (h.at' s _ e).2.1 rfl) (hk.block _ h.ti.mlt fun e => (h.at' s _ e).2.2 rfl)
  · by_cases e : t = s
    · simp only [LA.upd, Lk.upd, e, if_true]
      exact hx
    · simp only [LA.upd, Lk.upd, e, if_false]
      exact (h.wi t).keep fun j hj => hold t j e hj
  · cases s
    · simp only [LA.upd, if_true, if_false, reduceCtorEq] at h1 h2
      exact hap2 true j (by decide) h1 h2
    · simp only [LA.upd, if_true, if_false, reduceCtorEq] at h1 h2
      exact hap2 false j (by decide) h2 h1
  · by_cases e : t = s
    · simp only [LA.upd, e, if_true] at hj ⊢
      exact (hn j hj).elim (h.at' s j) fun e => ⟨by have := heap_lt h.blk; omega, by have := h.ti.lt; omega, by have := h.ti.mlt; omega⟩
    · simp only [LA.upd, e, if_false] at hj ⊢
      exact h.at' t j hj
  · rcases hj with e | e | e | ⟨t, hj⟩
    · exact h.lo j (.inl e)
    · exact h.lo j (.inr (.inl e))
    · exact h.lo j (.inr (.inr (.inl e)))
    · by_cases e : t = s
      · simp only [LA.upd, e, if_true] at hj
        exact (hn j hj).elim (fun e => h.lo j (.inr (.inr (.inr ⟨s, e⟩)))) fun e => Nat.le_trans h.bel.size e
      · simp only [LA.upd, e, if_false] at hj
        exact h.lo j (.inr (.inr (.inr ⟨t, hj⟩)))
/-- what a stream's birth does to a direction's blocks -/
theorem WB.born {a : WA} {id : Int} {kk n j : Nat} (hkk : n ≤ kk) (h : WB { a with q := fun i => if i = id then some kk else a.q i } j) : WB a j ∨ n ≤ j := by
  rcases h with h | h | h | h | h | h | h | ⟨i, h⟩
  · exact .inl (.inl h)
  · exact .inl (.inr (.inl h))
  · exact .inl (.inr (.inr (.inl h)))
  · exact .inl (.inr (.inr (.inr (.inl h))))
  · exact .inl (.inr (.inr (.inr (.inr (.inl h)))))
  · exact .inl (.inr (.inr (.inr (.inr (.inr (.inl h))))))
  · exact .inl (.inr (.inr (.inr (.inr (.inr (.inr (.inl h)))))))
  · simp only at h
    by_cases e : i = id
    · simp only [e, if_true, Option.some.injEq] at h
      exact .inr (by omega)
    · simp only [e, if_false] at h
      exact .inl (.inr (.inr (.inr (.inr (.inr (.inr (.inr ⟨i, h⟩)))))))
/-- bear on a direction of it -/
theorem LJ.bear (h : LJ w0 w A k m) (s : Bool) (id : Int) (hid : I64 id) (hm : m < maxLen) : Calls Tryz.prog 65 #[.pointer (some ⟨(A.w s).g, 0, none⟩), .int .i64 id] w fun e w' => e = .returned (.tuple #[]) ∧ ∃ A', A'.g = A.g ∧ (∀ t, (A'.w t).g = (A.w t).g) ∧ LJ w0 w' A' (k.upd s fun y => { y with rw := putm y.rw id (cl y.ac.win) }) (m + 1) := by
  refine (bear_any (A.w s) (k.wy s) m id w (h.wi s) hid hm).mono ?_
  rintro e w' ⟨rfl, kk, h1, h2, h3⟩
  have h4 := (h.more (Nat.le_succ m)).way (s := s) h2 rfl (h3.mono fun i _ e => .inr (.inr (.inl e))) (fun j hj => WB.born h1 hj)
  refine ⟨rfl, A.upd s { A.w s with q := fun j => if j = id then some kk else (A.w s).q j }, rfl, fun t => ?_, ?_⟩
  · by_cases e : t = s <;> simp [LA.upd, e]
  · have e : (k.upd s fun y => { y with rw := putm y.rw id (cl y.ac.win) }) = k.upd s fun _ => { k.wy s with rw := putm (k.wy s).rw id (cl (k.wy s).ac.win) } := by
      unfold Lk.upd
      congr 1
      funext t
      by_cases e : t = s
      · simp [e]
      · simp [e]
    rw [e]
    exact h4
end Go.Proofs.YtfmljlflnpmceaaGreatDoor
/- An event on a stream: happen. -/
namespace Go.Proofs.YtfmljlflnpmceaaGreatDoor
open Go.RowKit
set_option linter.unusedVariables false
set_option linter.unusedSimpArgs false
variable {w0 w w' : World} {A : LA} {k : Lk} {m : Nat}
/-- a type that none of its blocks has -/
def Ot (t : TypeId) : Prop := t ≠ 69 ∧ t ≠ 85 ∧ t ≠ 76 ∧ t ≠ 101 ∧ t ≠ 92 ∧ t ≠ 103 ∧ t ≠ 9
theorem ot78 : Ot 78 := by unfold Ot; decide
theorem ot116 : Ot 116 := by unfold Ot; decide
/-- blocks of other types are kept -/
def KpO (w V : World) : Prop := ∀ (j : Nat) (c : Array Value) (t : TypeId) (fz : Nat × Nat), w.heap[j]? = some (.cells c t fz) → Ot t → V.heap[j]? = some (.cells c t fz)
theorem KpO.bel {w V V' : World} (h : KpO w V) (hb : Below V.heap.size V V') : KpO w V' := fun j c t fz hj ht => (hb.block j (heap_lt (h j c t fz hj ht))).trans (h j c t fz hj ht)
theorem KpO.of_below {w V : World} (hb : Below w.heap.size w V) : KpO w V := fun j c t fz hj ht => (hb.block j (heap_lt hj)).trans hj
theorem KpO.trans {w V V' : World} (h : KpO w V) (h' : KpO V V') : KpO w V' := fun j c t fz hj ht => h' j c t fz (h j c t fz hj ht) ht
theorem LJ.off (h : LJ w0 w A k m) {q : Nat} {c : Array Value} {t : TypeId} {fz : Nat × Nat} (hb : w.heap[q]? = some (.cells c t fz)) (ht : Ot t) : ¬ LB A q := by
  obtain ⟨t1, t2, t3, t4, t5, t6, t7⟩ := ht
  rintro (e | e | e | ⟨s, hs⟩)
  · exact ty_ne hb h.blk t1 e
  · exact ty_ne hb h.ti.blk t2 e
  · obtain ⟨es, ck, h2, _⟩ := h.ti.mp
    rw [e, h2] at hb
    cases hb
  · have hw := h.wi s
    rcases hs with e | e | e | e | hk | e | hk | ⟨id, hk⟩
    · exact ty_ne hb hw.blk t3 e
    · exact hw.rs.ne hb e
    · exact hw.rw.ne hb e
    · exact ty_ne hb hw.bk.blk t4 e
    · obtain ⟨cc, hc⟩ := bk_row_ty hw.bk hk
      exact ty_ne hb hc t5 rfl
    · exact ty_ne hb hw.rm t6 e
    · obtain ⟨_, cc, hc⟩ := hw.pg.lt _ hk
      exact ty_ne hb hc t7 rfl
    · obtain ⟨n, _, hc, _⟩ := hw.rd id _ hk
      exact ty_ne hb hc t6 rfl
theorem LJ.keep (h : LJ w0 w A k m) (hb : Below w0.heap.size w0 w') (hk : ∀ j, LB A j → w'.heap[j]? = w.heap[j]?) : LJ w0 w' A k m :=
  ⟨(hk _ (.inl rfl)).trans h.blk, h.ti.stays (hk _ (.inr (.inl rfl))) (hk _ (.inr (.inr (.inl rfl)))), fun s => (h.wi s).keep fun j hj => hk j (.inr (.inr (.inr ⟨s, hj⟩))), h.ap, h.at', h.lo, hb⟩
/-- a block beside it is written -/
theorem LJ.aside (h : LJ w0 w A k m) {q : Nat} {c : Array Value} {t : TypeId} {fz : Nat × Nat} (hk : Ks (fun j => j = q) w w') (hb : w.heap[q]? = some (.cells c t fz)) (ht : Ot t) (hq : w0.heap.size ≤ q) : LJ w0 w' A k m :=
  h.keep (h.bel.trans (hk.below h.bel.size fun i hi e => by omega)) fun j hj => hk.block j (h.lt hj) fun e => h.off hb ht (e ▸ hj)
theorem K2s.off (h : LJ w0 w A k m) (hk : K2s A.p A.mb w w') {q : Nat} {c : Array Value} {t : TypeId} {fz : Nat × Nat} (hb : w.heap[q]? = some (.cells c t fz)) (ht : Ot t) : w'.heap[q]? = some (.cells c t fz) :=
  (hk.block q (heap_lt hb) fun e => e.elim (fun e => h.off hb ht (.inr (.inl e))) fun e => h.off hb ht (.inr (.inr (.inl e)))).trans hb
theorem LJ.cell0 (h : LJ w0 w A k m) : w.cell? ⟨A.g, 0, none⟩ = some (.pointer (some ⟨A.p, 0, none⟩)) := cell_blk h.blk 0
/-- which streams the table holds behind an event -/
theorem doo_keys {T : Tb} (h : T.Ok) {id : Int} {g : Bool} {kd j v : Int} (hl : look (T.doo id g kd).1.L j = some v) : (∃ v', look T.L j = some v') ∨ (j = id ∧ T.st id = 0 ∧ (T.doo id g kd).1.st id ≠ 0) := by
  rcases T.doo_cases h id g kd with e | ⟨n, n1, n2, n3, n4, _, hs, _, _, e⟩
  · rw [e] at hl
    exact .inl ⟨v, hl⟩
  · rw [e] at hl ⊢
    simp only [Tb.mv] at hl
    split at hl
    · rw [look_dele h.srt] at hl
      split at hl
      · cases hl
      · exact .inl ⟨v, hl⟩
    · rename_i hc
      rw [look_putm h.srt] at hl
      split at hl
      · rename_i ej
        cases hx : look T.L id with
        | some y => rw [ej]; exact .inl ⟨y, hx⟩
        | none =>
          refine .inr ⟨ej, ?_, ?_⟩
          · unfold Tb.st at n4 ⊢
            rw [hs, hx] at n4 ⊢
            simp only [if_true, Option.getD_none] at n4 ⊢
            split
            · rfl
            · rename_i hh
              rw [if_neg hh] at n4
              exact absurd rfl n4
          · have h1 : look (T.mv id n g kd).L id = some n := by
              simp only [Tb.mv]
              rw [if_neg hc, look_putm h.srt, if_pos rfl]
            have h2 : (T.mv id n g kd).ours id = T.ours id := rfl
            have h3 := T.mv_last id n g kd (T.ours id)
            unfold Tb.st
            rw [hs, h2, h3, h1]
            simp only [if_true, Option.getD_some, beq_self_eq_true]
            rw [if_neg (by omega)]
            omega
      · exact .inl ⟨v, hl⟩
theorem bear_two (k : Lk) (s : Bool) (id : Int) : ((k.upd s fun y => { y with rw := putm y.rw id (cl y.ac.win) }).upd (!s) fun y => { y with rw := putm y.rw id (cl y.ac.win) }) = k.bear id := by
  unfold Lk.upd Lk.bear
  congr 1
  funext t
  cases s <;> cases t <;> rfl
/-- behind happen the table's streams have their windows -/
theorem Lv.happen {k : Lk} (hv : Lv k) (hok : k.T.Ok) (hs : ∀ s, Srt (k.wy s).rw) (s : Bool) (id kd : Int) : Lv (k.happen s id kd).1 := by
  have hb : ∀ b : Bool, (b = true ↔ (k.T.st id = 0 ∧ (k.T.doo id (!s) kd).1.st id ≠ 0)) → Lv (if b = true then (⟨(k.T.doo id (!s) kd).1, k.wy⟩ : Lk).bear id else ⟨(k.T.doo id (!s) kd).1, k.wy⟩) := by
    intro b hb t j v hl
    cases b
    · simp only [Bool.false_eq_true, if_false] at hl ⊢
      rcases doo_keys hok hl with ⟨v', h1⟩ | ⟨h1, h2, h3⟩
      · exact hv t j v' h1
      · exact absurd (hb.2 ⟨h2, h3⟩) (by decide)
    · simp only [if_true] at hl ⊢
      show (look (putm (k.wy t).rw id _) j).isSome = true
      rw [look_putm (hs t)]
      split
      · rfl
      · rename_i hj
        rcases doo_keys hok hl with ⟨v', h1⟩ | ⟨h1, _⟩
        · exact hv t j v' h1
        · exact absurd h1 hj
  have e := hb (k.T.st id == 0 && !((k.T.doo id (!s) kd).1.st id == 0)) (by simp)
  unfold Lk.happen
  simp only
  split <;> exact e
/-- a stream was born: all blocks of cells are as they were -/
def Bo (w0 w w' : World) (A : LA) (k : Lk) (m : Nat) : Prop := ∃ A', A'.g = A.g ∧ (∀ u, (A'.w u).g = (A.w u).g) ∧ LJ w0 w' A' k m ∧ ∀ (j : Nat) (c : Array Value) (t : TypeId) (fz : Nat × Nat), w.heap[j]? = some (.cells c t fz) → w'.heap[j]? = w.heap[j]?
theorem LJ.bear2 (h : LJ w0 w A k m) (s : Bool) (id : Int) (hid : I64 id) (hm : m < maxLen) : Calls Tryz.prog 65 #[.pointer (some ⟨(A.w s).g, 0, none⟩), .int .i64 id] w fun e w' => e = .returned (.tuple #[]) ∧ Bo w0 w w' A (k.upd s fun y => { y with rw := putm y.rw id (cl y.ac.win) }) (m + 1) := by
  refine (bear_any (A.w s) (k.wy s) m id w (h.wi s) hid hm).mono ?_
  rintro e w' ⟨rfl, kk, h1, h2, h3⟩
  have h4 := (h.more (Nat.le_succ m)).way (s := s) h2 rfl (h3.mono fun i _ e => .inr (.inr (.inl e))) (fun j hj => WB.born h1 hj)
  refine ⟨rfl, A.upd s { A.w s with q := fun j => if j = id then some kk else (A.w s).q j }, rfl, fun t => ?_, ?_, fun j c t fz hb => h3.block j (heap_lt hb) ((h.wi s).rw.ne hb)⟩
  · by_cases e : t = s <;> simp [LA.upd, e]
  · have e : (k.upd s fun y => { y with rw := putm y.rw id (cl y.ac.win) }) = k.upd s fun _ => { k.wy s with rw := putm (k.wy s).rw id (cl (k.wy s).ac.win) } := by
      unfold Lk.upd
      congr 1
      funext t
      by_cases e : t = s
      · simp [e]
      · simp [e]
    rw [e]
    exact h4
set_option maxRecDepth 100000 in
set_option maxHeartbeats 20000000 in
theorem happen_any (t : Tn) (id kd : Int) (w0 w : World) (A : LA) (k : Lk) (m : Nat) (h : LJ w0 w A k m) (hv : Lv k) (hg : t.lk = A.g) (hw : t.wa = (A.w t.s).g) (hb : t.bk = (A.w (!t.s)).g) (hid : I64 id) (hm : m + 1 < maxLen) :
    Calls Tryz.prog 47 #[.agg (tnv t), .int .i64 id, .int .i64 kd] w fun e w' => e = .returned (.tuple #[.int .i64 (k.happen t.s id kd).2.1, .bool (k.happen t.s id kd).2.2]) ∧ ∃ A', A'.g = A.g ∧ (∀ u, (A'.w u).g = (A.w u).g) ∧ LJ w0 w' A' (k.happen t.s id kd).1 (m + 2) ∧ KpO w w' := by
  obtain ⟨lk, ⟨ty, fl, st, da, pa, de, ex, wt, co, la⟩, p, s, wa, bk⟩ := t
  simp only at hg hw hb ⊢
  subst hg
  have HI : Hid (I64 id) := hid
  have HM : Hid (m + 1 < maxLen) := hm
  have HW : Hid (wa = (A.w s).g ∧ bk = (A.w (!s)).g) := ⟨hw, hb⟩
  obtain ⟨vk, hvk⟩ : ∃ v, (k.T.doo id (!s) kd).2.1 = v := ⟨_, rfl⟩
  obtain ⟨vc, hvc⟩ : ∃ v, (k.T.doo id (!s) kd).2.2 = v := ⟨_, rfl⟩
  have HD : Hid ((k.T.doo id (!s) kd).2.1 = vk ∧ (k.T.doo id (!s) kd).2.2 = vc) := ⟨hvk, hvc⟩
  obtain ⟨s0, hs0⟩ : ∃ v, k.T.st id = v := ⟨_, rfl⟩
  obtain ⟨s1, hs1⟩ : ∃ v, (k.T.doo id (!s) kd).1.st id = v := ⟨_, rfl⟩
  have HS : Hid (k.T.st id = s0 ∧ (k.T.doo id (!s) kd).1.st id = s1) := ⟨hs0, hs1⟩
  obtain ⟨R, hR⟩ : ∃ R, k.happen s id kd = R := ⟨_, rfl⟩
  have HRR : Hid (R = (if vk = 4 then ((if (s0 == 0 && !(s1 == 0)) = true then (⟨(k.T.doo id (!s) kd).1, k.wy⟩ : Lk).bear id else ⟨(k.T.doo id (!s) kd).1, k.wy⟩), 1, false) else ((if (s0 == 0 && !(s1 == 0)) = true then (⟨(k.T.doo id (!s) kd).1, k.wy⟩ : Lk).bear id else ⟨(k.T.doo id (!s) kd).1, k.wy⟩), vc, vk == 1))) := by
    show _ = _
    rw [← hR, ← hvk, ← hvc, ← hs0, ← hs1]
    rfl
  rw [hR]
  obtain ⟨W1, hW1⟩ : ∃ V, w.alloc (.cells #[.pointer (some ⟨A.g, 0, none⟩), .int .i64 ty, .int .i64 fl, .int .i64 st, .string da, .int .i64 pa, .int .i64 de, .bool ex, .int .i64 wt, .int .i64 co, .int .i64 la, p, .bool s, .pointer (some ⟨wa, 0, none⟩), .pointer (some ⟨bk, 0, none⟩)] 78) = V := ⟨_, rfl⟩
  obtain ⟨b0, hb0⟩ : ∃ q, w.heap.size = q := ⟨_, rfl⟩
  have b1 : Below w.heap.size w W1 := by rw [← hW1]; exact bel1 _ _
  have HL1 : Hid (LJ w0 W1 A k m ∧ W1.heap[b0]? = some (.cells #[.pointer (some ⟨A.g, 0, none⟩), .int .i64 ty, .int .i64 fl, .int .i64 st, .string da, .int .i64 pa, .int .i64 de, .bool ex, .int .i64 wt, .int .i64 co, .int .i64 la, p, .bool s, .pointer (some ⟨wa, 0, none⟩), .pointer (some ⟨bk, 0, none⟩)] 78 (0, 0)) ∧ KpO w W1) := ⟨h.below b1, by rw [← hW1, ← hb0, heap_al, if_pos rfl], KpO.of_below b1⟩
  have HZ1 : Hid (w.heap.size ≤ W1.heap.size) := b1.size
  have HSt : Hid (Calls Tryz.prog 52 #[.pointer (some ⟨A.p, 0, none⟩), .int .i64 id] W1 fun e w' => e = .returned (.int .i64 s0) ∧ Below W1.heap.size W1 w') := by
    have := state_any W1 A.p A.mb k.T id HL1.out.1.ti hid
    rw [hs0] at this
    exact this
  have hSc : ∀ (V : World) (kk : Lk), LJ w0 V A kk m ∧ V.heap[b0]? = some (.cells #[.pointer (some ⟨A.g, 0, none⟩), .int .i64 ty, .int .i64 fl, .int .i64 st, .string da, .int .i64 pa, .int .i64 de, .bool ex, .int .i64 wt, .int .i64 co, .int .i64 la, p, .bool s, .pointer (some ⟨wa, 0, none⟩), .pointer (some ⟨bk, 0, none⟩)] 78 (0, 0)) ∧ KpO w V → V.cell? ⟨b0, 0, none⟩ = some (.pointer (some ⟨A.g, 0, none⟩)) ∧ V.cell? ⟨b0, 12, none⟩ = some (.bool s) ∧ V.cell? ⟨A.g, 0, none⟩ = some (.pointer (some ⟨A.p, 0, none⟩)) := fun V kk hV => ⟨cell_blk hV.2.1 0, cell_blk hV.2.1 12, hV.1.cell0⟩
  simp only [tnv]
  obtain ⟨d0, d1, d2⟩ := hSc W1 k HL1.out
  replace hSc : Hid _ := hSc
  clear h hw hb hid hm hvk hvc hs0 hs1 hR b1 hv
  go_enter Tryz.func47, Tryz.ntmps47
  go_wp2_with fail
  try rw [hW1]
  try rw [hb0]
  clear hW1 hb0
  go_at_call 52
  refine HSt.out.mono ?_
  rintro e V1 ⟨rfl, bV⟩
  have HL2 : Hid (LJ w0 V1 A k m ∧ V1.heap[b0]? = some (.cells #[.pointer (some ⟨A.g, 0, none⟩), .int .i64 ty, .int .i64 fl, .int .i64 st, .string da, .int .i64 pa, .int .i64 de, .bool ex, .int .i64 wt, .int .i64 co, .int .i64 la, p, .bool s, .pointer (some ⟨wa, 0, none⟩), .pointer (some ⟨bk, 0, none⟩)] 78 (0, 0)) ∧ KpO w V1) := ⟨HL1.out.1.below bV, (bV.block _ (heap_lt HL1.out.2.1)).trans HL1.out.2.1, HL1.out.2.2.bel bV⟩
  have HZ2 : Hid (w.heap.size ≤ V1.heap.size) := Nat.le_trans HZ1.out bV.size
  clear bV HL1 HZ1 HSt d0 d1 d2
  go_upto_region 2 with fail
  go_cut [9] from 10 (fun v wx => ∃ qv : Nat, v = .pointer (some ⟨qv, 0, none⟩) ∧ Hid (LJ w0 wx A ⟨(k.T.doo id (!s) kd).1, k.wy⟩ m ∧ wx.heap[b0]? = some (.cells #[.pointer (some ⟨A.g, 0, none⟩), .int .i64 ty, .int .i64 fl, .int .i64 st, .string da, .int .i64 pa, .int .i64 de, .bool ex, .int .i64 wt, .int .i64 co, .int .i64 la, p, .bool s, .pointer (some ⟨wa, 0, none⟩), .pointer (some ⟨bk, 0, none⟩)] 78 (0, 0)) ∧ wx.heap[qv]? = some (.cells #[.int .i64 vk, .int .i64 vc] 116 (0, 0)) ∧ w0.heap.size ≤ qv ∧ KpO w wx))
  case first =>
    have hIW : LJ w0 V1.drew A k m ∧ V1.drew.heap[b0]? = some (.cells #[.pointer (some ⟨A.g, 0, none⟩), .int .i64 ty, .int .i64 fl, .int .i64 st, .string da, .int .i64 pa, .int .i64 de, .bool ex, .int .i64 wt, .int .i64 co, .int .i64 la, p, .bool s, .pointer (some ⟨wa, 0, none⟩), .pointer (some ⟨bk, 0, none⟩)] 78 (0, 0)) ∧ KpO w V1.drew := ⟨HL2.out.1.below (Below.refl _ _).drew, HL2.out.2.1, HL2.out.2.2⟩
    have zIW : w.heap.size ≤ V1.drew.heap.size := HZ2.out
    refine wp_region_held_drew (S := (fun V => V.cell? ⟨b0, 0, none⟩ = some (.pointer (some ⟨A.g, 0, none⟩)) ∧ V.cell? ⟨b0, 12, none⟩ = some (.bool s) ∧ V.cell? ⟨A.g, 0, none⟩ = some (.pointer (some ⟨A.p, 0, none⟩)))) (by kernel_rfl) (hSc.out _ _ hIW) (fun hHeld => ?_)
    generalize hWg : World.drew _ = W2 at hIW zIW hHeld ⊢
    clear hWg
    refine tkA (i := 0) (oi := ⟨some 17, .fieldAddr 78 (.tmp 3) 0, 0, "trace.go:144", #[], none⟩) ?_
    try simp only [Act.put, lA, l0, lS]
    refine tkA (i := 1) (oi := ⟨some 18, .load 58 (.tmp 17), 58, "trace.go:144", #[⟨0, .data⟩], none⟩) ?_
    try simp only [Act.put, lA, l0, lS]
    refine tkA (i := 2) (oi := ⟨some 19, .nilCheck (.tmp 18), 0, "trace.go:144", #[⟨1, .data⟩], none⟩) ?_
    try simp only [Act.put, lA, l0, lS]
    refine tkA (i := 3) (oi := ⟨some 20, .fieldAddr 69 (.tmp 19) 0, 0, "trace.go:144", #[⟨2, .data⟩], none⟩) ?_
    try simp only [Act.put, lA, l0, lS]
    refine tkA (i := 4) (oi := ⟨some 21, .load 64 (.tmp 20), 64, "trace.go:144", #[⟨3, .data⟩], none⟩) ?_
    try simp only [Act.put, lA, l0, lS]
    refine tkA (i := 5) (oi := ⟨some 22, .move (.tmp 1), 2, "trace.go:144", #[], none⟩) ?_
    try simp only [Act.put, lA, l0, lS]
    refine tkA (i := 6) (oi := ⟨some 23, .fieldAddr 78 (.tmp 3) 2, 0, "trace.go:144", #[], none⟩) ?_
    try simp only [Act.put, lA, l0, lS]
    refine tkA (i := 7) (oi := ⟨some 24, .load 4 (.tmp 23), 4, "trace.go:144", #[⟨6, .data⟩], none⟩) ?_
    try simp only [Act.put, lA, l0, lS]
    refine tkA (i := 8) (oi := ⟨some 25, .unOp .not 4 (.tmp 24), 4, "trace.go:144", #[⟨7, .data⟩], none⟩) ?_
    try simp only [Act.put, lA, l0, lS]
    refine tkA (i := 9) (oi := ⟨some 26, .move (.tmp 2), 3, "trace.go:144", #[], none⟩) ?_
    try simp only [Act.put, lA, l0, lS]
    refine tkA (i := 10) (oi := ⟨some 27, .build 119 #[(0, .tmp 25), (1, .tmp 26)], 119, "trace.go:144", #[⟨8, .data⟩, ⟨9, .data⟩], none⟩) ?_
    try simp only [Act.put, lA, l0, lS]
    refine wpAnyH_ready (rs := [11, 12]) (by kernel_rfl) (by simp) ?_
    refine AllReadyH.cons (o := ⟨some 28, .call { callee := Callee.value (.func 64), args := #[.tmp 21, .tmp 22, .tmp 27], argTypes := #[64, 2, 119] }, 116, "trace.go:144", #[⟨4, .data⟩, ⟨5, .data⟩, ⟨10, .data⟩], none⟩) rfl (fun K hK => ?_) ?_
    · go_simp
      refine (do_any _ A.p A.mb k.T id (!s) kd hIW.1.ti HI.out).mono ?_
      rintro e' W2x ⟨rfl, hT, hK2⟩
      have hW2x : LJ w0 W2x A ⟨(k.T.doo id (!s) kd).1, k.wy⟩ m ∧ W2x.heap[b0]? = some (.cells #[.pointer (some ⟨A.g, 0, none⟩), .int .i64 ty, .int .i64 fl, .int .i64 st, .string da, .int .i64 pa, .int .i64 de, .bool ex, .int .i64 wt, .int .i64 co, .int .i64 la, p, .bool s, .pointer (some ⟨wa, 0, none⟩), .pointer (some ⟨bk, 0, none⟩)] 78 (0, 0)) ∧ KpO w W2x := ⟨hIW.1.tab hT hK2, K2s.off hIW.1 hK2 hIW.2.1 ot78, fun j c t fz hj ht => K2s.off hIW.1 hK2 (hIW.2.2 j c t fz hj ht) ht⟩
      have zW2x : w.heap.size ≤ W2x.heap.size := Nat.le_trans zIW hK2.size
      clear hT hK2
      rw [HD.out.1, HD.out.2]
      go_wp2_with fail
      refine hK.out _ _ (hSc.out _ _ hW2x) (fun hHeld => ?_)
      clear hK K
      try simp only [Act.put, lA, l0, lS]
      refine wpAnyH_ready (rs := [12]) (by kernel_rfl) (by simp) ?_
      refine AllReadyH.cons (o := ⟨some 9, .alloc 116, 0, "trace.go:144", #[], none⟩) rfl (fun K hK => ?_) AllReadyH.nil
      obtain ⟨W2xx, hV0⟩ : ∃ V, W2x.alloc (.cells #[.int .i64 0, .int .i64 0] 116) = V := ⟨_, rfl⟩
      obtain ⟨qv, hqv⟩ : ∃ q, W2x.heap.size = q := ⟨_, rfl⟩
      have hq0 : w0.heap.size ≤ qv := by rw [← hqv]; exact hW2x.1.bel.size
      have hq1 : w.heap.size ≤ qv := by rw [← hqv]; exact zW2x
      have bX : Below W2x.heap.size W2x W2xx := by rw [← hV0]; exact bel1 _ _
      have hW2xx : LJ w0 W2xx A ⟨(k.T.doo id (!s) kd).1, k.wy⟩ m ∧ W2xx.heap[b0]? = some (.cells #[.pointer (some ⟨A.g, 0, none⟩), .int .i64 ty, .int .i64 fl, .int .i64 st, .string da, .int .i64 pa, .int .i64 de, .bool ex, .int .i64 wt, .int .i64 co, .int .i64 la, p, .bool s, .pointer (some ⟨wa, 0, none⟩), .pointer (some ⟨bk, 0, none⟩)] 78 (0, 0)) ∧ KpO w W2xx := ⟨hW2x.1.below bX, (bX.block _ (heap_lt hW2x.2.1)).trans hW2x.2.1, hW2x.2.2.bel bX⟩
      have gW2xx : W2xx.heap[qv]? = some (.cells #[.int .i64 0, .int .i64 0] 116 (0, 0)) := by rw [← hV0, ← hqv, heap_al, if_pos rfl]
      have zW2xx : w.heap.size ≤ W2xx.heap.size := Nat.le_trans zW2x bX.size
      clear bX
      go_simp
      go_wp2_with fail
      try rw [hV0]
      try rw [hqv]
      refine hK.out _ _ (hSc.out _ _ hW2xx) (fun hHeld => ?_)
      clear hK K hV0 hqv
      try simp only [Act.put, lA, l0, lS]
      refine wpAnyH_ready (rs := [13]) (by kernel_rfl) (by simp) ?_
      refine AllReadyH.cons (o := ⟨none, .store 116 (.tmp 9) (.tmp 28), 0, "trace.go:144", #[⟨12, .data⟩, ⟨11, .data⟩, ⟨11, .chain⟩, ⟨0, .phase⟩, ⟨1, .phase⟩, ⟨2, .phase⟩, ⟨3, .phase⟩, ⟨4, .phase⟩, ⟨5, .phase⟩, ⟨6, .phase⟩, ⟨7, .phase⟩, ⟨8, .phase⟩, ⟨9, .phase⟩, ⟨10, .phase⟩, ⟨11, .phase⟩, ⟨12, .phase⟩], none⟩) rfl (fun K hK => ?_) AllReadyH.nil
      have r0 := cell_blk gW2xx 0
      have r1 := cell_blk gW2xx 1
      have r2 := frozen_blk gW2xx 0
      have r3 := frozen_blk gW2xx 1
      simp only [List.getElem?_toArray, List.getElem?_cons_succ, List.getElem?_cons_zero] at r0 r1
      obtain ⟨W2xxx, hV0⟩ : ∃ V, (W2xx.setCell ⟨qv, 0, none⟩ (.int .i64 vk)).setCell ⟨qv, 1, none⟩ (.int .i64 vc) = V := ⟨_, rfl⟩
      have hKs : Ks (fun j => j = qv) W2xx W2xxx := by rw [← hV0]; exact (Ks.setCell (fun j => j = qv) W2xx qv 0 _ rfl).trans (Ks.setCell (fun j => j = qv) _ qv 1 _ rfl) (fun _ _ e => e) (fun _ _ e => e)
      have hW2xxx : LJ w0 W2xxx A ⟨(k.T.doo id (!s) kd).1, k.wy⟩ m ∧ W2xxx.heap[b0]? = some (.cells #[.pointer (some ⟨A.g, 0, none⟩), .int .i64 ty, .int .i64 fl, .int .i64 st, .string da, .int .i64 pa, .int .i64 de, .bool ex, .int .i64 wt, .int .i64 co, .int .i64 la, p, .bool s, .pointer (some ⟨wa, 0, none⟩), .pointer (some ⟨bk, 0, none⟩)] 78 (0, 0)) ∧ KpO w W2xxx := ⟨hW2xx.1.aside hKs gW2xx ot116 hq0, (hKs.block _ (heap_lt hW2xx.2.1) (ty_ne hW2xx.2.1 gW2xx (by decide))).trans hW2xx.2.1, fun j c t fz hj ht => (hKs.block j (heap_lt (hW2xx.2.2 j c t fz hj ht)) (by have := heap_lt hj; omega)).trans (hW2xx.2.2 j c t fz hj ht)⟩
      have gW2xxx : W2xxx.heap[qv]? = some (.cells #[.int .i64 vk, .int .i64 vc] 116 (0, 0)) := by rw [← hV0, setCell_block _ _ 1 _ _ _ _ (setCell_block _ _ 0 _ _ _ _ gW2xx)]; rfl
      clear hKs
      go_simp
      go_wp2_with fail
      try rw [hV0]
      refine hK.out _ _ (hSc.out _ _ hW2xxx) (fun hHeld => ?_)
      clear hK K hV0 r0 r1 r2 r3
      try simp only [Act.put, lA, l0, lS]
      refine wpAnyH_done (by kernel_rfl) ?_ _
      have HE : Hid (LJ w0 W2xxx A ⟨(k.T.doo id (!s) kd).1, k.wy⟩ m ∧ W2xxx.heap[b0]? = some (.cells #[.pointer (some ⟨A.g, 0, none⟩), .int .i64 ty, .int .i64 fl, .int .i64 st, .string da, .int .i64 pa, .int .i64 de, .bool ex, .int .i64 wt, .int .i64 co, .int .i64 la, p, .bool s, .pointer (some ⟨wa, 0, none⟩), .pointer (some ⟨bk, 0, none⟩)] 78 (0, 0)) ∧ W2xxx.heap[qv]? = some (.cells #[.int .i64 vk, .int .i64 vc] 116 (0, 0)) ∧ w0.heap.size ≤ qv ∧ KpO w W2xxx) := ⟨hW2xxx.1, hW2xxx.2.1, gW2xxx, hq0, hW2xxx.2.2⟩
      clear hHeld
      go_wp2_with fail
      go_meet
      case rel => exact ⟨qv, rfl, HE.out⟩
    refine AllReadyH.cons (o := ⟨some 9, .alloc 116, 0, "trace.go:144", #[], none⟩) rfl (fun K hK => ?_) AllReadyH.nil
    obtain ⟨W2x, hV0⟩ : ∃ V, W2.alloc (.cells #[.int .i64 0, .int .i64 0] 116) = V := ⟨_, rfl⟩
    obtain ⟨qv, hqv⟩ : ∃ q, W2.heap.size = q := ⟨_, rfl⟩
    have hq0 : w0.heap.size ≤ qv := by rw [← hqv]; exact hIW.1.bel.size
    have hq1 : w.heap.size ≤ qv := by rw [← hqv]; exact zIW
    have bX : Below W2.heap.size W2 W2x := by rw [← hV0]; exact bel1 _ _
    have hW2x : LJ w0 W2x A k m ∧ W2x.heap[b0]? = some (.cells #[.pointer (some ⟨A.g, 0, none⟩), .int .i64 ty, .int .i64 fl, .int .i64 st, .string da, .int .i64 pa, .int .i64 de, .bool ex, .int .i64 wt, .int .i64 co, .int .i64 la, p, .bool s, .pointer (some ⟨wa, 0, none⟩), .pointer (some ⟨bk, 0, none⟩)] 78 (0, 0)) ∧ KpO w W2x := ⟨hIW.1.below bX, (bX.block _ (heap_lt hIW.2.1)).trans hIW.2.1, hIW.2.2.bel bX⟩
    have gW2x : W2x.heap[qv]? = some (.cells #[.int .i64 0, .int .i64 0] 116 (0, 0)) := by rw [← hV0, ← hqv, heap_al, if_pos rfl]
    have zW2x : w.heap.size ≤ W2x.heap.size := Nat.le_trans zIW bX.size
    clear bX
    go_simp
    go_wp2_with fail
    try rw [hV0]
    try rw [hqv]
    refine hK.out _ _ (hSc.out _ _ hW2x) (fun hHeld => ?_)
    clear hK K hV0 hqv
    try simp only [Act.put, lA, l0, lS]
    refine wpAnyH_ready (rs := [11]) (by kernel_rfl) (by simp) ?_
    refine AllReadyH.cons (o := ⟨some 28, .call { callee := Callee.value (.func 64), args := #[.tmp 21, .tmp 22, .tmp 27], argTypes := #[64, 2, 119] }, 116, "trace.go:144", #[⟨4, .data⟩, ⟨5, .data⟩, ⟨10, .data⟩], none⟩) rfl (fun K hK => ?_) AllReadyH.nil
    go_simp
    refine (do_any _ A.p A.mb k.T id (!s) kd hW2x.1.ti HI.out).mono ?_
    rintro e' W2xx ⟨rfl, hT, hK2⟩
    have hW2xx : LJ w0 W2xx A ⟨(k.T.doo id (!s) kd).1, k.wy⟩ m ∧ W2xx.heap[b0]? = some (.cells #[.pointer (some ⟨A.g, 0, none⟩), .int .i64 ty, .int .i64 fl, .int .i64 st, .string da, .int .i64 pa, .int .i64 de, .bool ex, .int .i64 wt, .int .i64 co, .int .i64 la, p, .bool s, .pointer (some ⟨wa, 0, none⟩), .pointer (some ⟨bk, 0, none⟩)] 78 (0, 0)) ∧ KpO w W2xx := ⟨hW2x.1.tab hT hK2, K2s.off hW2x.1 hK2 hW2x.2.1 ot78, fun j c t fz hj ht => K2s.off hW2x.1 hK2 (hW2x.2.2 j c t fz hj ht) ht⟩
    have gW2xx : W2xx.heap[qv]? = some (.cells #[.int .i64 0, .int .i64 0] 116 (0, 0)) := K2s.off hW2x.1 hK2 gW2x ot116
    have zW2xx : w.heap.size ≤ W2xx.heap.size := Nat.le_trans zW2x hK2.size
    clear hT hK2
    rw [HD.out.1, HD.out.2]
    go_wp2_with fail
    refine hK.out _ _ (hSc.out _ _ hW2xx) (fun hHeld => ?_)
    clear hK K
    try simp only [Act.put, lA, l0, lS]
    refine wpAnyH_ready (rs := [13]) (by kernel_rfl) (by simp) ?_
    refine AllReadyH.cons (o := ⟨none, .store 116 (.tmp 9) (.tmp 28), 0, "trace.go:144", #[⟨12, .data⟩, ⟨11, .data⟩, ⟨11, .chain⟩, ⟨0, .phase⟩, ⟨1, .phase⟩, ⟨2, .phase⟩, ⟨3, .phase⟩, ⟨4, .phase⟩, ⟨5, .phase⟩, ⟨6, .phase⟩, ⟨7, .phase⟩, ⟨8, .phase⟩, ⟨9, .phase⟩, ⟨10, .phase⟩, ⟨11, .phase⟩, ⟨12, .phase⟩], none⟩) rfl (fun K hK => ?_) AllReadyH.nil
    have r0 := cell_blk gW2xx 0
    have r1 := cell_blk gW2xx 1
    have r2 := frozen_blk gW2xx 0
    have r3 := frozen_blk gW2xx 1
    simp only [List.getElem?_toArray, List.getElem?_cons_succ, List.getElem?_cons_zero] at r0 r1
    obtain ⟨W2xxx, hV0⟩ : ∃ V, (W2xx.setCell ⟨qv, 0, none⟩ (.int .i64 vk)).setCell ⟨qv, 1, none⟩ (.int .i64 vc) = V := ⟨_, rfl⟩
    have hKs : Ks (fun j => j = qv) W2xx W2xxx := by rw [← hV0]; exact (Ks.setCell (fun j => j = qv) W2xx qv 0 _ rfl).trans (Ks.setCell (fun j => j = qv) _ qv 1 _ rfl) (fun _ _ e => e) (fun _ _ e => e)
    have hW2xxx : LJ w0 W2xxx A ⟨(k.T.doo id (!s) kd).1, k.wy⟩ m ∧ W2xxx.heap[b0]? = some (.cells #[.pointer (some ⟨A.g, 0, none⟩), .int .i64 ty, .int .i64 fl, .int .i64 st, .string da, .int .i64 pa, .int .i64 de, .bool ex, .int .i64 wt, .int .i64 co, .int .i64 la, p, .bool s, .pointer (some ⟨wa, 0, none⟩), .pointer (some ⟨bk, 0, none⟩)] 78 (0, 0)) ∧ KpO w W2xxx := ⟨hW2xx.1.aside hKs gW2xx ot116 hq0, (hKs.block _ (heap_lt hW2xx.2.1) (ty_ne hW2xx.2.1 gW2xx (by decide))).trans hW2xx.2.1, fun j c t fz hj ht => (hKs.block j (heap_lt (hW2xx.2.2 j c t fz hj ht)) (by have := heap_lt hj; omega)).trans (hW2xx.2.2 j c t fz hj ht)⟩
    have gW2xxx : W2xxx.heap[qv]? = some (.cells #[.int .i64 vk, .int .i64 vc] 116 (0, 0)) := by rw [← hV0, setCell_block _ _ 1 _ _ _ _ (setCell_block _ _ 0 _ _ _ _ gW2xx)]; rfl
    clear hKs
    go_simp
    go_wp2_with fail
    try rw [hV0]
    refine hK.out _ _ (hSc.out _ _ hW2xxx) (fun hHeld => ?_)
    clear hK K hV0 r0 r1 r2 r3
    try simp only [Act.put, lA, l0, lS]
    refine wpAnyH_done (by kernel_rfl) ?_ _
    have HE : Hid (LJ w0 W2xxx A ⟨(k.T.doo id (!s) kd).1, k.wy⟩ m ∧ W2xxx.heap[b0]? = some (.cells #[.pointer (some ⟨A.g, 0, none⟩), .int .i64 ty, .int .i64 fl, .int .i64 st, .string da, .int .i64 pa, .int .i64 de, .bool ex, .int .i64 wt, .int .i64 co, .int .i64 la, p, .bool s, .pointer (some ⟨wa, 0, none⟩), .pointer (some ⟨bk, 0, none⟩)] 78 (0, 0)) ∧ W2xxx.heap[qv]? = some (.cells #[.int .i64 vk, .int .i64 vc] 116 (0, 0)) ∧ w0.heap.size ≤ qv ∧ KpO w W2xxx) := ⟨hW2xxx.1, hW2xxx.2.1, gW2xxx, hq0, hW2xxx.2.2⟩
    clear hHeld
    go_wp2_with fail
    go_meet
    case rel => exact ⟨qv, rfl, HE.out⟩
  case rest =>
    obtain ⟨qv, rfl, hE⟩ := hcut
    have hR1 : R.1 = (if (s0 == 0 && !(s1 == 0)) = true then (⟨(k.T.doo id (!s) kd).1, k.wy⟩ : Lk).bear id else ⟨(k.T.doo id (!s) kd).1, k.wy⟩) := by rw [HRR.out]; split <;> rfl
    have HR1 : Hid _ := hR1
    clear hR1
    obtain ⟨d0, d1, d2⟩ := hSc.out wc _ ⟨hE.out.1, hE.out.2.1, hE.out.2.2.2.2⟩
    obtain ⟨d3, d4⟩ : wc.cell? ⟨b0, 13, none⟩ = some (.pointer (some ⟨wa, 0, none⟩)) ∧ wc.cell? ⟨b0, 14, none⟩ = some (.pointer (some ⟨bk, 0, none⟩)) := ⟨cell_blk hE.out.2.1 13, cell_blk hE.out.2.1 14⟩
    by_cases hz : s0 = 0
    · subst hz
      have HS2 : Hid (Calls Tryz.prog 52 #[.pointer (some ⟨A.p, 0, none⟩), .int .i64 id] wc fun e w' => e = .returned (.int .i64 s1) ∧ Below wc.heap.size wc w') := by
        have := state_any wc A.p A.mb _ id hE.out.1.ti HI.out
        rw [HS.out.2] at this
        exact this
      go_wp2_with fail
      go_at_call 52
      refine HS2.out.mono ?_
      rintro e V3 ⟨rfl, bV⟩
      have HE3 : Hid (LJ w0 V3 A ⟨(k.T.doo id (!s) kd).1, k.wy⟩ m ∧ V3.heap[b0]? = some (.cells #[.pointer (some ⟨A.g, 0, none⟩), .int .i64 ty, .int .i64 fl, .int .i64 st, .string da, .int .i64 pa, .int .i64 de, .bool ex, .int .i64 wt, .int .i64 co, .int .i64 la, p, .bool s, .pointer (some ⟨wa, 0, none⟩), .pointer (some ⟨bk, 0, none⟩)] 78 (0, 0)) ∧ V3.heap[qv]? = some (.cells #[.int .i64 vk, .int .i64 vc] 116 (0, 0)) ∧ w0.heap.size ≤ qv ∧ KpO w V3) := ⟨hE.out.1.below bV, (bV.block _ (heap_lt hE.out.2.1)).trans hE.out.2.1, (bV.block _ (heap_lt hE.out.2.2.1)).trans hE.out.2.2.1, hE.out.2.2.2.1, hE.out.2.2.2.2.bel bV⟩
      clear bV hE HS2 d0 d1 d2 d3 d4
      by_cases ho : s1 = 0
      · subst ho
        have HX : Hid (∃ A', A'.g = A.g ∧ (∀ u, (A'.w u).g = (A.w u).g) ∧ LJ w0 V3 A' R.1 (m + 2) ∧ KpO w V3) := ⟨A, rfl, fun _ => rfl, by rw [HR1.out]; exact HE3.out.1.more (by omega), HE3.out.2.2.2.2⟩
        have HQ : Hid (V3.heap[qv]? = some (.cells #[.int .i64 vk, .int .i64 vc] 116 (0, 0))) := HE3.out.2.2.1
        clear HE3
        obtain ⟨x0, x1⟩ : V3.cell? ⟨qv, 0, none⟩ = some (.int .i64 vk) ∧ V3.cell? ⟨qv, 1, none⟩ = some (.int .i64 vc) := ⟨cell_blk HQ.out 0, cell_blk HQ.out 1⟩
        by_cases h4 : vk = 4
        · have h4b : (vk == 4) = true := beq_iff_eq.2 h4
          have HZ : Hid (R.2.1 = 1 ∧ R.2.2 = false) := by rw [HRR.out, if_pos h4]; exact ⟨rfl, rfl⟩
          go_wp2_with fail
          go_ret2
          exact ⟨by rw [HZ.out.1, HZ.out.2]; rfl, HX.out⟩
        · have h4b : (vk == 4) = false := beq_eq_false_iff_ne.2 h4
          have HZ : Hid (R.2.1 = vc ∧ R.2.2 = (vk == 1)) := by rw [HRR.out, if_neg h4]; exact ⟨rfl, rfl⟩
          go_wp2_with fail
          go_region
          all_goals
            go_wp2_with fail
            go_ret2
            exact ⟨by rw [HZ.out.1, HZ.out.2]; rfl, by obtain ⟨A', a1, a2, a3, a4⟩ := HX.out; exact ⟨A', a1, a2, a3.below (Below.refl _ _).drew, a4⟩⟩
      · have hob : (s1 == 0) = false := beq_eq_false_iff_ne.2 ho
        obtain ⟨d3, d4⟩ : V3.cell? ⟨b0, 13, none⟩ = some (.pointer (some ⟨wa, 0, none⟩)) ∧ V3.cell? ⟨b0, 14, none⟩ = some (.pointer (some ⟨bk, 0, none⟩)) := ⟨cell_blk HE3.out.2.1 13, cell_blk HE3.out.2.1 14⟩
        have HB1 : Hid (Calls Tryz.prog 65 #[.pointer (some ⟨wa, 0, none⟩), .int .i64 id] V3 fun e w' => e = .returned (.tuple #[]) ∧ Bo w0 V3 w' A ((⟨(k.T.doo id (!s) kd).1, k.wy⟩ : Lk).upd s fun y => { y with rw := putm y.rw id (cl y.ac.win) }) (m + 1)) := by
          rw [HW.out.1]
          exact HE3.out.1.bear2 s id HI.out (by have := HM.out; omega)
        go_wp2_with fail
        go_at_call 65
        refine HB1.out.mono ?_
        rintro e V4 ⟨rfl, A1, a1, a2, a3, a4⟩
        have HE4 : Hid (LJ w0 V4 A1 ((⟨(k.T.doo id (!s) kd).1, k.wy⟩ : Lk).upd s fun y => { y with rw := putm y.rw id (cl y.ac.win) }) (m + 1) ∧ V4.heap[b0]? = some (.cells #[.pointer (some ⟨A.g, 0, none⟩), .int .i64 ty, .int .i64 fl, .int .i64 st, .string da, .int .i64 pa, .int .i64 de, .bool ex, .int .i64 wt, .int .i64 co, .int .i64 la, p, .bool s, .pointer (some ⟨wa, 0, none⟩), .pointer (some ⟨bk, 0, none⟩)] 78 (0, 0)) ∧ V4.heap[qv]? = some (.cells #[.int .i64 vk, .int .i64 vc] 116 (0, 0)) ∧ KpO w V4) := ⟨a3, (a4 _ _ _ _ HE3.out.2.1).trans HE3.out.2.1, (a4 _ _ _ _ HE3.out.2.2.1).trans HE3.out.2.2.1, fun j c t fz hj ht => (a4 _ _ _ _ (HE3.out.2.2.2.2 j c t fz hj ht)).trans (HE3.out.2.2.2.2 j c t fz hj ht)⟩
        have d4' : V4.cell? ⟨b0, 14, none⟩ = some (.pointer (some ⟨bk, 0, none⟩)) := cell_blk HE4.out.2.1 14
        have HA1 : Hid (A1.g = A.g ∧ ∀ u, (A1.w u).g = (A.w u).g) := ⟨a1, a2⟩
        clear a1 a2 a3 a4 HB1 d3 d4 HE3
        have HB2 : Hid (Calls Tryz.prog 65 #[.pointer (some ⟨bk, 0, none⟩), .int .i64 id] V4 fun e w' => e = .returned (.tuple #[]) ∧ Bo w0 V4 w' A1 (((⟨(k.T.doo id (!s) kd).1, k.wy⟩ : Lk).upd s fun y => { y with rw := putm y.rw id (cl y.ac.win) }).upd (!s) fun y => { y with rw := putm y.rw id (cl y.ac.win) }) (m + 2)) := by
          rw [HW.out.2, ← HA1.out.2]
          exact HE4.out.1.bear2 (!s) id HI.out HM.out
        go_wp2_with fail
        go_at_call 65
        refine HB2.out.mono ?_
        rintro e V5 ⟨rfl, A2, a1, a2, a3, a4⟩
        have HX : Hid (∃ A', A'.g = A.g ∧ (∀ u, (A'.w u).g = (A.w u).g) ∧ LJ w0 V5 A' R.1 (m + 2) ∧ KpO w V5) := ⟨A2, a1.trans HA1.out.1, fun u => (a2 u).trans (HA1.out.2 u), by rw [HR1.out, hob]; rw [bear_two] at a3; exact a3, fun j c t fz hj ht => (a4 _ _ _ _ (HE4.out.2.2.2 j c t fz hj ht)).trans (HE4.out.2.2.2 j c t fz hj ht)⟩
        have HQ : Hid (V5.heap[qv]? = some (.cells #[.int .i64 vk, .int .i64 vc] 116 (0, 0))) := (a4 _ _ _ _ HE4.out.2.2.1).trans HE4.out.2.2.1
        clear a1 a2 a3 a4 HE4 HB2 d4'
        obtain ⟨x0, x1⟩ : V5.cell? ⟨qv, 0, none⟩ = some (.int .i64 vk) ∧ V5.cell? ⟨qv, 1, none⟩ = some (.int .i64 vc) := ⟨cell_blk HQ.out 0, cell_blk HQ.out 1⟩
        by_cases h4 : vk = 4
        · have h4b : (vk == 4) = true := beq_iff_eq.2 h4
          have HZ : Hid (R.2.1 = 1 ∧ R.2.2 = false) := by rw [HRR.out, if_pos h4]; exact ⟨rfl, rfl⟩
          go_wp2_with fail
          go_ret2
          exact ⟨by rw [HZ.out.1, HZ.out.2]; rfl, HX.out⟩
        · have h4b : (vk == 4) = false := beq_eq_false_iff_ne.2 h4
          have HZ : Hid (R.2.1 = vc ∧ R.2.2 = (vk == 1)) := by rw [HRR.out, if_neg h4]; exact ⟨rfl, rfl⟩
          go_wp2_with fail
          go_region
          all_goals
            go_wp2_with fail
            go_ret2
            exact ⟨by rw [HZ.out.1, HZ.out.2]; rfl, by obtain ⟨A', a1, a2, a3, a4⟩ := HX.out; exact ⟨A', a1, a2, a3.below (Below.refl _ _).drew, a4⟩⟩
    · have hzb : (s0 == 0) = false := beq_eq_false_iff_ne.2 hz
      have HX : Hid (∃ A', A'.g = A.g ∧ (∀ u, (A'.w u).g = (A.w u).g) ∧ LJ w0 wc A' R.1 (m + 2) ∧ KpO w wc) := ⟨A, rfl, fun _ => rfl, by rw [HR1.out, hzb]; exact hE.out.1.more (by omega), hE.out.2.2.2.2⟩
      have HQ : Hid (wc.heap[qv]? = some (.cells #[.int .i64 vk, .int .i64 vc] 116 (0, 0))) := hE.out.2.2.1
      clear hE d0 d1 d2 d3 d4
      obtain ⟨x0, x1⟩ : wc.cell? ⟨qv, 0, none⟩ = some (.int .i64 vk) ∧ wc.cell? ⟨qv, 1, none⟩ = some (.int .i64 vc) := ⟨cell_blk HQ.out 0, cell_blk HQ.out 1⟩
      by_cases h4 : vk = 4
      · have h4b : (vk == 4) = true := beq_iff_eq.2 h4
        have HZ : Hid (R.2.1 = 1 ∧ R.2.2 = false) := by rw [HRR.out, if_pos h4]; exact ⟨rfl, rfl⟩
        go_wp2_with fail
        go_ret2
        exact ⟨by rw [HZ.out.1, HZ.out.2]; rfl, HX.out⟩
      · have h4b : (vk == 4) = false := beq_eq_false_iff_ne.2 h4
        have HZ : Hid (R.2.1 = vc ∧ R.2.2 = (vk == 1)) := by rw [HRR.out, if_neg h4]; exact ⟨rfl, rfl⟩
        go_wp2_with fail
        go_region
        all_goals
          go_wp2_with fail
          go_ret2
          exact ⟨by rw [HZ.out.1, HZ.out.2]; rfl, by obtain ⟨A', a1, a2, a3, a4⟩ := HX.out; exact ⟨A', a1, a2, a3.below (Below.refl _ _).drew, a4⟩⟩
end Go.Proofs.YtfmljlflnpmceaaGreatDoor
/- A turn's box. -/
namespace Go.Proofs.YtfmljlflnpmceaaGreatDoor
open Go.RowKit
set_option linter.unusedVariables false
set_option linter.unusedSimpArgs false
/-- the frame of a turn in its box -/
def TnC (w : World) (b : Nat) (t : Tn) : Prop := w.cell? ⟨b, 1, none⟩ = some (.int .i64 t.f.ty) ∧ w.cell? ⟨b, 2, none⟩ = some (.int .i64 t.f.fl) ∧ w.cell? ⟨b, 3, none⟩ = some (.int .i64 t.f.st) ∧ w.cell? ⟨b, 4, none⟩ = some (.string t.f.data) ∧ w.cell? ⟨b, 5, none⟩ = some (.int .i64 t.f.pad) ∧ w.cell? ⟨b, 6, none⟩ = some (.int .i64 t.f.dep) ∧ w.cell? ⟨b, 7, none⟩ = some (.bool t.f.excl) ∧ w.cell? ⟨b, 8, none⟩ = some (.int .i64 t.f.wt) ∧ w.cell? ⟨b, 9, none⟩ = some (.int .i64 t.f.code) ∧ w.cell? ⟨b, 10, none⟩ = some (.int .i64 t.f.last) ∧ w.cell? ⟨b, 11, none⟩ = some t.p
theorem tncells {w : World} {b : Nat} {t : Tn} (h : w.heap[b]? = some (.cells (tnv t) 78 (0, 0))) : TnC w b t := ⟨cell_blk h 1, cell_blk h 2, cell_blk h 3, cell_blk h 4, cell_blk h 5, cell_blk h 6, cell_blk h 7, cell_blk h 8, cell_blk h 9, cell_blk h 10, cell_blk h 11⟩
end Go.Proofs.YtfmljlflnpmceaaGreatDoor
