/- site: editions; choice. -/
import Derived.Test.YtcadlpmopplkeaaDoorC1
import Derived.Laws.ResultCell
namespace Go.Proofs.YtcadlpmopplkeaaDoor
open Go.RowKit
open Go.Shelf
set_option linter.unusedVariables false
set_option linter.unusedSimpArgs false

/-- an edition: since, status, vary, its choices' place, the choices -/
structure Ed where
  s : Int
  n : Int
  v : ByteArray
  y : SV
  l : List Ch
def edv (e : Ed) : Array Value := #[.int .i64 e.s, .int .i64 e.n, .string e.v, sv e.y]
/-- which choice it is -/
def chI (e : Ed) (fs : List Fd) : Nat := if 0 ≤ plI e.l (fvS fs e.v) then (plI e.l (fvS fs e.v)).toNat else e.l.length - 1
theorem plI_lt (l : List Ch) (s : ByteArray) (h : 0 ≤ plI l s) : (plI l s).toNat < l.length := by
  unfold plI at h ⊢
  cases hf : l.findIdx? (fun c => c.v.toList == s.toList) with
  | none => rw [hf] at h; simp at h
  | some k =>
    have := (List.findIdx?_eq_some_iff_getElem.1 hf).1
    simp
    exact this
theorem chI_lt (e : Ed) (fs : List Fd) (h : e.l ≠ []) : chI e fs < e.l.length := by
  unfold chI
  have := List.length_pos_iff.2 h
  split
  · rename_i h1; exact plI_lt _ _ h1
  · omega
def chS (e : Ed) (fs : List Fd) : Ch := match e.l[chI e fs]? with | some c => c | none => ⟨⟨#[]⟩, ⟨#[]⟩⟩

set_option maxHeartbeats 8000000 in
set_option maxRecDepth 100000 in
theorem choice_any (e : Ed) (x : SV) (fs : List Fd) (w : World) (hE : In ECh w (sv e.y) e.l) (hne : e.l ≠ []) (hI : In EFd w (sv x) fs) :
    Calls Tryd.prog 59 #[.agg (edv e), sv x] w fun r w' => r = .returned (.agg (chv (chS e fs))) ∧ Below w.heap.size w w' := by
  obtain ⟨Kx, hlt, hci, hcs⟩ : ∃ (Kx : Nat) (h : Kx < e.l.length), Kx = (if 0 ≤ plI e.l (fvS fs e.v) then (plI e.l (fvS fs e.v)).toNat else e.l.length - 1) ∧ chS e fs = e.l[Kx]'h := ⟨chI e fs, chI_lt e fs hne, rfl, by unfold chS; rw [List.getElem?_eq_getElem (chI_lt e fs hne)]⟩
  obtain ⟨c, hc⟩ : ∃ c, chS e fs = c := ⟨_, rfl⟩
  rw [hc] at hcs ⊢
  have HCS : Hid (c = e.l[Kx]'hlt) := hcs
  clear hc hcs
  obtain ⟨s, n, v, ⟨yb, yl, yc⟩, l⟩ := e
  simp only at hE hne hlt HCS hci
  obtain ⟨b0, c0, e0, m1, m2⟩ := hE.slice
  simp only [sv] at e0
  injection e0 with e1 e2 e3
  subst e1 e2 e3
  have HE : Hid (In ECh w (.slice yb l.length yc) l) := hE
  have HX1 : Hid (∀ W, Below w.heap.size w W → Calls Tryd.prog 75 #[sv x, .string v] W fun e w' => e = .returned (.string (fvS fs v)) ∧ Below W.heap.size W w') := fun W hW => firstValue_any x fs v W (hI.below hW)
  have HX2 : Hid (∀ W, Below w.heap.size w W → Calls Tryd.prog 73 #[.slice yb l.length yc, .string (fvS fs v)] W fun e w' => e = .returned (.int .i64 (plI l (fvS fs v))) ∧ Below W.heap.size W w') := fun W hW => placeOf_any (yb, l.length, yc) l (fvS fs v) W (hE.below hW)
  obtain ⟨FV, hFV⟩ : ∃ FV, fvS fs v = FV := ⟨_, rfl⟩
  obtain ⟨I, hIx⟩ : ∃ I, plI l FV = I := ⟨_, rfl⟩
  rw [hFV] at HX1 HX2 hci
  rw [hIx] at HX2 hci
  have hI0 : Hid (-1 ≤ I) := by rw [← hIx]; unfold plI; split <;> (show _ ≤ _) <;> omega
  obtain ⟨Bk, off, cap, ek, hcK⟩ := hE.ch Kx hlt
  injection ek with e1 e2 e3
  clear e2 e3
  subst e1
  rw [← HCS.out] at hcK
  obtain ⟨xb, xl, xc⟩ := x
  unfold edv chv
  simp only [sv] at HX1 ⊢
  obtain ⟨N0, hn'⟩ : ∃ N0, N0 = w.heap.size := ⟨_, rfl⟩
  have hn : Hid (N0 = w.heap.size) := hn'
  obtain ⟨W0, hW0⟩ : ∃ W0, W0 = (w.alloc (.cells #[.int .i64 s, .int .i64 n, .string v, .slice (some ⟨Bk, off, none⟩) l.length yc] 83)).alloc (.cells #[.string ⟨#[]⟩, .string ⟨#[]⟩] 29) := ⟨_, rfl⟩
  have HB0 : Hid (Below w.heap.size w W0) := by rw [hW0]; exact bel2 _ _ _
  have HG0 : Hid (W0.heap[N0 + 1]? = some (.cells #[.string ⟨#[]⟩, .string ⟨#[]⟩] 29 (0, 0))) := by show _ = _; rw [hW0, hn']; exact fresh2 _ _ _
  have hF0 : W0.heap[N0]? = some (.cells #[.int .i64 s, .int .i64 n, .string v, .slice (some ⟨Bk, off, none⟩) l.length yc] 83 (0, 0)) := by rw [hW0, hn', heap_al, if_neg (by simp), heap_al, if_pos rfl]
  have hCell : Hid (∀ V, Below W0.heap.size W0 V → V.cell? ⟨N0, 2, none⟩ = some (.string v) ∧ V.cell? ⟨N0, 3, none⟩ = some (.slice (some ⟨Bk, off, none⟩) l.length yc)) := fun V hV => ⟨cell_blk ((hV.block _ (heap_lt hF0)).trans hF0) 2, cell_blk ((hV.block _ (heap_lt hF0)).trans hF0) 3⟩
  have HKC : Hid (∀ V, Below w.heap.size w V → V.cell? ⟨Bk, off + Kx * 2, none⟩ = some (.string c.v) ∧ V.cell? ⟨Bk, off + Kx * 2 + 1, none⟩ = some (.string c.b)) := hcK
  have hl0 : l.length ≤ 9223372036854775807 := by omega
  have HCI : Hid (Kx = if 0 ≤ I then I.toNat else l.length - 1) := hci
  clear hF0 hE hne hI hFV hIx HCS hcK hci
  go_enter Tryd.func59, Tryd.ntmps59
  go_wp2_with fail
  rw [← hW0]
  try rw [size_al]
  rw [← hn']
  clear hW0 hn'
  have hbW : Below W0.heap.size W0 W0.drew := (Below.refl _ _).drew
  refine wp_region_held_drew (S := (fun V => V.cell? ⟨N0, 2, none⟩ = some (.string v) ∧ V.cell? ⟨N0, 3, none⟩ = some (.slice (some ⟨Bk, off, none⟩) l.length yc))) (by kernel_rfl) (hCell.out _ hbW) (fun hHeld => ?_)
  generalize hWg : World.drew _ = W at hbW hHeld ⊢
  clear hWg
  refine wpAnyH_take (i := 0) (oi := { dst := some 6, op := Op.fieldAddr 83 (Operand.tmp 2) 3, type := 0, pos := "site.go:127", after := #[], guard := none }) (v := ?vv1) rfl (by kernel_rfl) (by kernel_rfl) (by kernel_rfl) (fun _ _ _ h => h) (Or.inl ⟨by rfl, ?hy1⟩) (by assumption) ?_
  case hy1 => (intro w hSw; (try dsimp only at hSw); go_simp; all_goals with_reducible rfl)
  try simp only [Act.put, List.setIfInBounds_toArray, List.set_cons_zero, List.set_cons_succ]
  refine wpAnyH_take (i := 1) (oi := { dst := some 7, op := Op.load 24 (Operand.tmp 6), type := 24, pos := "site.go:127", after := #[{ on := 0, ground := Ground.data }], guard := none }) (v := ?vv2) rfl (by kernel_rfl) (by kernel_rfl) (by kernel_rfl) (fun _ _ _ h => h) (Or.inl ⟨by rfl, ?hy2⟩) (by assumption) ?_
  case hy2 => (intro w hSw; (try dsimp only at hSw); go_simp; all_goals with_reducible rfl)
  try simp only [Act.put, List.setIfInBounds_toArray, List.set_cons_zero, List.set_cons_succ]
  refine wpAnyH_take (i := 2) (oi := { dst := some 8, op := Op.move (Operand.tmp 1), type := 35, pos := "site.go:127", after := #[], guard := none }) (v := ?vv3) rfl (by kernel_rfl) (by kernel_rfl) (by kernel_rfl) (fun _ _ _ h => h) (Or.inl ⟨by rfl, ?hy3⟩) (by assumption) ?_
  case hy3 => (intro w hSw; (try dsimp only at hSw); go_simp; all_goals with_reducible rfl)
  try simp only [Act.put, List.setIfInBounds_toArray, List.set_cons_zero, List.set_cons_succ]
  refine wpAnyH_take (i := 3) (oi := { dst := some 9, op := Op.fieldAddr 83 (Operand.tmp 2) 2, type := 0, pos := "site.go:127", after := #[], guard := none }) (v := ?vv4) rfl (by kernel_rfl) (by kernel_rfl) (by kernel_rfl) (fun _ _ _ h => h) (Or.inl ⟨by rfl, ?hy4⟩) (by assumption) ?_
  case hy4 => (intro w hSw; (try dsimp only at hSw); go_simp; all_goals with_reducible rfl)
  try simp only [Act.put, List.setIfInBounds_toArray, List.set_cons_zero, List.set_cons_succ]
  refine wpAnyH_take (i := 4) (oi := { dst := some 10, op := Op.load 9 (Operand.tmp 9), type := 9, pos := "site.go:127", after := #[{ on := 3, ground := Ground.data }], guard := none }) (v := ?vv5) rfl (by kernel_rfl) (by kernel_rfl) (by kernel_rfl) (fun _ _ _ h => h) (Or.inl ⟨by rfl, ?hy5⟩) (by assumption) ?_
  case hy5 => (intro w hSw; (try dsimp only at hSw); go_simp; all_goals with_reducible rfl)
  try simp only [Act.put, List.setIfInBounds_toArray, List.set_cons_zero, List.set_cons_succ]
  refine wpAnyH_ready (rs := [5]) (by kernel_rfl) (by simp) ?_
  refine AllReadyH.cons (o := { dst := some 11, op := Op.call { callee := Callee.value (Operand.func 75), args := #[Operand.tmp 8, Operand.tmp 10], argTypes := #[35, 9] }, type := 9, pos := "site.go:127", after := #[{ on := 2, ground := Ground.data }, { on := 4, ground := Ground.data }], guard := none }) rfl (fun K hK => ?_) AllReadyH.nil
  go_simp
  refine (HX1.out _ (HB0.out.trans (hbW.mono HB0.out.size))).mono ?_
  rintro e' Wx ⟨rfl, bX⟩
  have hbWx : Below W0.heap.size W0 Wx := hbW.trans (bX.mono hbW.size)
  clear bX
  go_wp2_with fail
  refine hK.out _ _ (hCell.out _ hbWx) (fun hHeld => ?_)
  clear hK K
  try simp only [Act.put, List.setIfInBounds_toArray, List.set_cons_zero, List.set_cons_succ]
  refine wpAnyH_ready (rs := [6]) (by kernel_rfl) (by simp) ?_
  refine AllReadyH.cons (o := { dst := some 12, op := Op.call { callee := Callee.value (Operand.func 73), args := #[Operand.tmp 7, Operand.tmp 11], argTypes := #[24, 9] }, type := 3, pos := "site.go:127", after := #[{ on := 1, ground := Ground.data }, { on := 5, ground := Ground.data }, { on := 5, ground := Ground.chain }], guard := none }) rfl (fun K hK => ?_) AllReadyH.nil
  go_simp
  refine (HX2.out _ (HB0.out.trans (hbWx.mono HB0.out.size))).mono ?_
  rintro e' Wxx ⟨rfl, bX⟩
  have hbWxx : Below W0.heap.size W0 Wxx := hbWx.trans (bX.mono hbWx.size)
  clear bX
  go_wp2_with fail
  refine hK.out _ _ (hCell.out _ hbWxx) (fun hHeld => ?_)
  clear hK K
  try simp only [Act.put, List.setIfInBounds_toArray, List.set_cons_zero, List.set_cons_succ]
  refine wpAnyH_take (i := 7) (oi := { dst := some 5, op := Op.assign (Operand.tmp 12), type := 3, pos := "site.go:127", after := #[{ on := 6, ground := Ground.data }, { on := 6, ground := Ground.chain }, { on := 0, ground := Ground.phase }, { on := 1, ground := Ground.phase }, { on := 2, ground := Ground.phase }, { on := 3, ground := Ground.phase }, { on := 4, ground := Ground.phase }, { on := 5, ground := Ground.phase }, { on := 6, ground := Ground.phase }], guard := none }) (v := ?vv6) rfl (by kernel_rfl) (by kernel_rfl) (by kernel_rfl) (fun _ _ _ h => h) (Or.inl ⟨by rfl, ?hy6⟩) (by assumption) ?_
  case hy6 => (intro w hSw; (try dsimp only at hSw); go_simp; all_goals with_reducible rfl)
  try simp only [Act.put, List.setIfInBounds_toArray, List.set_cons_zero, List.set_cons_succ]
  refine wpAnyH_done (by kernel_rfl) ?_ _
  have hg : Wxx.heap[N0 + 1]? = some (.cells #[.string ⟨#[]⟩, .string ⟨#[]⟩] 29 (0, 0)) := (hbWxx.block _ (heap_lt HG0.out)).trans HG0.out
  have z0 := cell_blk hg 0
  have z1 := cell_blk hg 1
  have z2 := frozen_blk hg 0
  have z3 := frozen_blk hg 1
  simp at z0 z1
  obtain ⟨y0, y1⟩ := hCell.out _ hbWxx
  obtain ⟨k0, k1⟩ := HKC.out _ (HB0.out.trans (hbWxx.mono HB0.out.size))
  have HG2 : Hid (((Wxx.setCell ⟨N0 + 1, 0, none⟩ (.string c.v)).setCell ⟨N0 + 1, 1, none⟩ (.string c.b)).heap[N0 + 1]? = some (.cells #[.string c.v, .string c.b] 29 (0, 0))) := by
    show _ = _
    rw [setCell_block _ _ _ _ _ _ _ (setCell_block _ _ _ _ _ _ _ hg)]
    rfl
  have HB2 : Hid (Below w.heap.size w ((Wxx.setCell ⟨N0 + 1, 0, none⟩ (.string c.v)).setCell ⟨N0 + 1, 1, none⟩ (.string c.b))) := (((HB0.out.trans (hbWxx.mono HB0.out.size)).setCell (p := ⟨N0 + 1, 0, none⟩) (by have := hn.out; show w.heap.size ≤ N0 + 1; omega) _).setCell (p := ⟨N0 + 1, 1, none⟩) (by have := hn.out; show w.heap.size ≤ N0 + 1; omega) _)
  clear hg hHeld
  by_cases hp : 0 ≤ I
  · have hKI : I = (Kx : Int) := by have := HCI.out; rw [if_pos hp] at this; omega
    subst hKI
    have lk : (Kx : Int) < (l.length : Int) := by omega
    go_wp2_with fail
    refine bodyPost_ret (results_cell_row (p := 4) (ty := 29) rfl _ _ (N0 + 1) 29 _ (0, 0) _ rfl HG2.out Tryd.underlying29 rfl (by kernel_rfl)) rfl ⟨rfl, HB2.out⟩
  · have hKL : Kx = l.length - 1 := by have := HCI.out; rw [if_neg hp] at this; exact this
    have hw : wrap64 ((l.length : Int) - 1) = (Kx : Int) := by unfold wrap64; omega
    have hw2 : (l.length : Int) - 1 = (Kx : Int) := by omega
    have lk : (Kx : Int) < (l.length : Int) := by omega
    have lp : I < 0 := by omega
    clear hKL hp
    go_wp2_with fail
    refine bodyPost_ret (results_cell_row (p := 4) (ty := 29) rfl _ _ (N0 + 1) 29 _ (0, 0) _ rfl HG2.out Tryd.underlying29 rfl (by kernel_rfl)) rfl ⟨rfl, HB2.out⟩
end Go.Proofs.YtcadlpmopplkeaaDoor
