/- ScriptFrames. A frame among the arguments, opened, of a bulk that is bounded. -/
import Derived.Test.YtghppkfopglgaaaGreatDoorKat
import Derived.Test.YtghppkfopglgaaaGreatDoorKav
import Derived.Test.YtghppkfopglgaaaGreatDoorKaf
import Derived.ProofKit
import Derived.SizedLaws
import Derived.Deep.SlicePairs
namespace Go.Proofs.YtghppkfopglgaaaGreatDoor
open Go.RowKit
set_option linter.unusedVariables false
set_option linter.unusedSimpArgs false
theorem InP.below {W W' : World} {v : Value} {ps : List (Int × Int)} (h : InP W v ps) (hb : Below W.heap.size W W') : InP W' v ps := by
  rcases h with h | ⟨bk, off, cap, e, h1, h2, h3, h4⟩
  · exact .inl h
  · refine .inr ⟨bk, off, cap, e, h1, h2, Nat.lt_of_lt_of_le h3 hb.size, fun j p hp => ?_⟩
    have hk : ∀ i, W'.cell? ⟨bk, i, none⟩ = W.cell? ⟨bk, i, none⟩ := fun i => by unfold World.cell?; simp only; rw [hb.block bk h3]
    obtain ⟨a, b⟩ := h4 j p hp
    exact ⟨by rw [hk]; exact a, by rw [hk]; exact b⟩
theorem ite_take {P Q R : Prop} [Decidable P] (h : P) (hq : Q) : if P then Q else R := by rw [if_pos h]; exact hq
theorem frT_len (f : Fm) (hf : f.Ok) (h : f.ps.length + f.da.size ≤ 1048576) : (frT f).length ≤ 140737488355328 := by
  obtain ⟨i1, i2, i3, i4, i5, i6, i7, i8, i9⟩ := hf
  have hn : ∀ (s : ByteArray) (n : Int), I64 n → (spS (nmW s n)).length ≤ s.size + 40 := fun s n hn => by
    unfold nmW
    have := iB_size n hn
    split
    · simp [spS]
    · rw [spS_two]; rw [sz_eq] at this ⊢; simp only [List.length_append, List.length_cons]; omega
  have h9 : (spS (f.ps.flatMap pmW)).length ≤ 80 * f.ps.length := by
    have : ∀ l : List (Int × Int), (∀ p ∈ l, I64 p.1 ∧ I64 p.2) → (spS (l.flatMap pmW)).length ≤ 80 * l.length := by
      intro l
      induction l with
      | nil => intro _; simp [spS]
      | cons p l ih =>
        intro hl
        have h1 := ih fun q hq => hl q (by simp [hq])
        obtain ⟨a, b⟩ := hl p (by simp)
        have ha := iB_size _ a
        have hb := iB_size _ b
        rw [List.flatMap_cons, spS_app, List.length_append]
        have : (spS (pmW p)).length ≤ 80 := by
          unfold pmW
          rw [sz_eq] at ha hb
          have h5 : paramB.data.toList.length = 5 := rfl
          simp only [spS, List.flatMap_cons, List.flatMap_nil, List.length_append, List.length_cons, List.length_nil]
          omega
        rw [List.length_cons]
        omega
    exact this _ i9
  rw [frT_sp]
  simp only [spS_app, List.length_append]
  have a1 := itoa_len f.ty i1.1 i1.2
  have a2 := iB_size f.fl i2
  have a3 := iB_size f.st i3
  have a4 := hn padB _ i4
  have a5 := hn depB _ i5
  have a6 := hn wtB _ i6
  have a7 := hn codeB _ i7
  have a8 := hn lastB _ i8
  have b4 : padB.size = 3 := rfl
  have b5 : depB.size = 3 := rfl
  have b6 : wtB.size = 6 := rfl
  have b7 : codeB.size = 4 := rfl
  have b8 : lastB.size = 4 := rfl
  have c1 : (spS [iB f.fl, iB f.st]).length ≤ 70 := by rw [spS_two]; rw [sz_eq] at a2 a3; simp only [List.length_append, List.length_cons]; omega
  have c2 : (spS (if f.ex then [exclB] else [])).length ≤ 10 := by split <;> simp [spS, exclB]
  have c3 : (spS f.w1).length ≤ 4 * f.da.size + 20 := by
    unfold Fm.w1
    split
    · simp [spS]
    · rw [spS_two]
      have := qtS_len f.da.data.toList
      rw [← sz_eq] at this
      have h5 : dataB.data.toList.length = 4 := rfl
      simp only [List.length_append, List.length_cons, bt_toList]
      omega
  omega
set_option maxRecDepth 100000 in
set_option maxHeartbeats 16000000 in
theorem frames_law (f : Fm) (hf : f.Ok) (hbk : f.ps.length + f.da.size ≤ 1048576) (v : Value) (w : World) (hE : Env w) (hP : InP w v f.ps) : Calls Tryz.prog 5 #[.agg (fmA f v)] w fun e w' => e = .returned (.bool true) ∧ Below w.heap.size w w' := by
  have HF1 := hid (fun V (hV : Below w.heap.size w V) => frame_any f hf (by omega) (by omega) (frT_len f hf hbk) v V (hE.below hV) (hP.below hV))
  have HF2 := hid (fun V (hV : Below w.heap.size w V) => rframe_any f hf (by omega) (by omega) v V (hE.below hV) (hP.below hV))
  obtain ⟨pb, pn, pc, hv, hpn⟩ : ∃ a n c, v = .slice a n c ∧ n = f.ps.length := by
    rcases hP with ⟨⟨b, c, rfl⟩, e⟩ | ⟨bk, off, cap, rfl, _⟩
    · exact ⟨_, _, _, rfl, by rw [e]; rfl⟩
    · exact ⟨_, _, _, rfl, rfl⟩
  subst hv
  obtain ⟨F, hF⟩ : ∃ F, f = F := ⟨_, rfl⟩
  obtain ⟨ty, fl, st, da, pad, dep, ex, wt, cd, la, ps⟩ := f
  obtain ⟨i1, i2, i3, i4, i5, i6, i7, i8, i9⟩ := hf
  simp only at i1 i2 i3 i4 i5 i6 i7 i8 i9 hpn hP
  obtain ⟨g1, hg1⟩ : ∃ g1, w.heap.size = g1 := ⟨_, rfl⟩
  obtain ⟨cs, hcs⟩ : ∃ cs, fmA ⟨ty, fl, st, da, pad, dep, ex, wt, cd, la, ps⟩ (.slice pb pn pc) = cs := ⟨_, rfl⟩
  rw [hcs]
  obtain ⟨W1, hW1⟩ : ∃ V, w.alloc (.cells cs 55) = V := ⟨_, rfl⟩
  have q1 : W1.heap[g1]? = some (.cells cs 55 (0, 0)) := by rw [← hW1, heap_al, if_pos hg1.symm]
  have b1 : Below w.heap.size w W1 := by rw [← hW1]; exact bel1 _ _
  have HS1 : Hid (FS g1 cs w W1) := hid ⟨b1, q1, hE.of b1.size fun k hk => b1.block k (by have := hE.sz; omega)⟩
  have g8 : 8 ≤ g1 := by have := hE.sz; omega
  have hc0 : cs[0]? = some (.int .i64 ty) := by rw [← hcs]; rfl
  have HC0 : Hid (∀ W, FS g1 cs w W → W.cell? ⟨g1, 0, none⟩ = some (.int .i64 ty)) := hid (fun W h => (cell_blk h.blk 0).trans hc0)
  have hc1 : cs[1]? = some (.int .i64 fl) := by rw [← hcs]; rfl
  have HC1 : Hid (∀ W, FS g1 cs w W → W.cell? ⟨g1, 1, none⟩ = some (.int .i64 fl)) := hid (fun W h => (cell_blk h.blk 1).trans hc1)
  have hc2 : cs[2]? = some (.int .i64 st) := by rw [← hcs]; rfl
  have HC2 : Hid (∀ W, FS g1 cs w W → W.cell? ⟨g1, 2, none⟩ = some (.int .i64 st)) := hid (fun W h => (cell_blk h.blk 2).trans hc2)
  have hc3 : cs[3]? = some (.string da) := by rw [← hcs]; rfl
  have HC3 : Hid (∀ W, FS g1 cs w W → W.cell? ⟨g1, 3, none⟩ = some (.string da)) := hid (fun W h => (cell_blk h.blk 3).trans hc3)
  have hc4 : cs[4]? = some (.int .i64 pad) := by rw [← hcs]; rfl
  have HC4 : Hid (∀ W, FS g1 cs w W → W.cell? ⟨g1, 4, none⟩ = some (.int .i64 pad)) := hid (fun W h => (cell_blk h.blk 4).trans hc4)
  have hc5 : cs[5]? = some (.int .i64 dep) := by rw [← hcs]; rfl
  have HC5 : Hid (∀ W, FS g1 cs w W → W.cell? ⟨g1, 5, none⟩ = some (.int .i64 dep)) := hid (fun W h => (cell_blk h.blk 5).trans hc5)
  have hc6 : cs[6]? = some (.bool ex) := by rw [← hcs]; rfl
  have HC6 : Hid (∀ W, FS g1 cs w W → W.cell? ⟨g1, 6, none⟩ = some (.bool ex)) := hid (fun W h => (cell_blk h.blk 6).trans hc6)
  have hc7 : cs[7]? = some (.int .i64 wt) := by rw [← hcs]; rfl
  have HC7 : Hid (∀ W, FS g1 cs w W → W.cell? ⟨g1, 7, none⟩ = some (.int .i64 wt)) := hid (fun W h => (cell_blk h.blk 7).trans hc7)
  have hc8 : cs[8]? = some (.int .i64 cd) := by rw [← hcs]; rfl
  have HC8 : Hid (∀ W, FS g1 cs w W → W.cell? ⟨g1, 8, none⟩ = some (.int .i64 cd)) := hid (fun W h => (cell_blk h.blk 8).trans hc8)
  have hc9 : cs[9]? = some (.int .i64 la) := by rw [← hcs]; rfl
  have HC9 : Hid (∀ W, FS g1 cs w W → W.cell? ⟨g1, 9, none⟩ = some (.int .i64 la)) := hid (fun W h => (cell_blk h.blk 9).trans hc9)
  have hc10 : cs[10]? = some (.slice pb pn pc) := by rw [← hcs]; rfl
  have HC10 : Hid (∀ W, FS g1 cs w W → W.cell? ⟨g1, 10, none⟩ = some (.slice pb pn pc)) := hid (fun W h => (cell_blk h.blk 10).trans hc10)
  have HC : Hid (∀ W, FS g1 cs w W → (fun W => W.cell? ⟨g1, 0, none⟩ = some (.int .i64 ty) ∧ W.cell? ⟨g1, 1, none⟩ = some (.int .i64 fl) ∧ W.cell? ⟨g1, 2, none⟩ = some (.int .i64 st) ∧ W.cell? ⟨g1, 3, none⟩ = some (.string da) ∧ W.cell? ⟨g1, 4, none⟩ = some (.int .i64 pad) ∧ W.cell? ⟨g1, 5, none⟩ = some (.int .i64 dep) ∧ W.cell? ⟨g1, 6, none⟩ = some (.bool ex) ∧ W.cell? ⟨g1, 7, none⟩ = some (.int .i64 wt) ∧ W.cell? ⟨g1, 8, none⟩ = some (.int .i64 cd) ∧ W.cell? ⟨g1, 9, none⟩ = some (.int .i64 la) ∧ W.cell? ⟨g1, 10, none⟩ = some (.slice pb pn pc) ∧ FS g1 cs w W) W) := hid (fun W h => ⟨HC0.out W h, HC1.out W h, HC2.out W h, HC3.out W h, HC4.out W h, HC5.out W h, HC6.out W h, HC7.out W h, HC8.out W h, HC9.out W h, HC10.out W h, h⟩)
  have HW1 := hid hW1
  have HG1 := hid hg1
  have HD : Hid (FS g1 cs w W1.drew) := hid (HS1.out.step (Below.refl _ W1).drew)
  have HH := hid (fun V (hV : Env V) => head_any V hV)
  have he : fmA ⟨ty, fl, st, da, pad, dep, ex, wt, cd, la, ps⟩ (.slice pb pn pc) = #[.int .i64 ty, .int .i64 fl, .int .i64 st, .string da, .int .i64 pad, .int .i64 dep, .bool ex, .int .i64 wt, .int .i64 cd, .int .i64 la, .slice pb pn pc] := rfl
  rw [he] at HF1 HF2
  obtain ⟨T, hT⟩ : ∃ T, bt (frT ⟨ty, fl, st, da, pad, dep, ex, wt, cd, la, ps⟩) = T := ⟨_, rfl⟩
  rw [hT] at HF1 HF2
  clear hE q1 b1 hW1 hcs hg1 hF hP i9 hpn hT he hc0 hc1 hc2 hc3 hc4 hc5 hc6 hc7 hc8 hc9 hc10
  go_enter Tryz.func5, Tryz.ntmps5
  go_upto_region 1 with fail
  try rw [HW1.out, HG1.out]
  refine wp_region_held_drew (S := (fun W => W.cell? ⟨g1, 0, none⟩ = some (.int .i64 ty) ∧ W.cell? ⟨g1, 1, none⟩ = some (.int .i64 fl) ∧ W.cell? ⟨g1, 2, none⟩ = some (.int .i64 st) ∧ W.cell? ⟨g1, 3, none⟩ = some (.string da) ∧ W.cell? ⟨g1, 4, none⟩ = some (.int .i64 pad) ∧ W.cell? ⟨g1, 5, none⟩ = some (.int .i64 dep) ∧ W.cell? ⟨g1, 6, none⟩ = some (.bool ex) ∧ W.cell? ⟨g1, 7, none⟩ = some (.int .i64 wt) ∧ W.cell? ⟨g1, 8, none⟩ = some (.int .i64 cd) ∧ W.cell? ⟨g1, 9, none⟩ = some (.int .i64 la) ∧ W.cell? ⟨g1, 10, none⟩ = some (.slice pb pn pc) ∧ FS g1 cs w W)) (by kernel_rfl) (HC.out _ HD.out) (fun hHeld => ?_)
  generalize World.drew _ = W at hHeld ⊢
  refine wpAnyH_ready (rs := [0]) (by kernel_rfl) (by simp) ?_
  refine AllReadyH.cons (o := { dst := some 3, op := Op.call { callee := Callee.value (Operand.func 9), args := #[], argTypes := #[] }, type := 4, pos := "law.go:67", after := #[], guard := none }) rfl (fun K hK => ?_) AllReadyH.nil
  go_simp
  refine (HH.out _ (hHeld.2.2.2.2.2.2.2.2.2.2.2).env).mono ?_
  rintro e' Wx ⟨rfl, bX⟩
  have HSWx := hid (FS.step hHeld.2.2.2.2.2.2.2.2.2.2.2 bX)
  clear bX hHeld
  go_wp2_with fail
  refine hK.out _ _ (HC.out _ HSWx.out) (fun hHeld => ?_)
  clear hK K
  try simp only [Act.put, List.setIfInBounds_toArray, List.set_cons_zero, List.set_cons_succ]
  refine wpAnyH_take (i := 1) (oi := { dst := some 4, op := Op.move (Operand.tmp 3), type := 4, pos := "law.go:67", after := #[{ on := 0, ground := Ground.data }, { on := 0, ground := Ground.chain }], guard := none }) (v := ?vv1) rfl (by kernel_rfl) (by kernel_rfl) (by kernel_rfl) (fun _ _ _ h => h) (Or.inl ⟨by rfl, ?hy1⟩) (by assumption) ?_
  case hy1 => (intro w hSw; (try dsimp only at hSw); go_simp; all_goals with_reducible rfl)
  try simp only [Act.put, List.setIfInBounds_toArray, List.set_cons_zero, List.set_cons_succ]
  refine wpAnyH_take (i := 2) (oi := { dst := some 5, op := Op.load 55 (Operand.tmp 1), type := 55, pos := "law.go:67", after := #[{ on := 1, ground := Ground.guard }], guard := some (1, true) }) (v := ?vv2) rfl (by kernel_rfl) (by kernel_rfl) (by kernel_rfl) (fun _ _ _ h => h) (Or.inl ⟨by rfl, ?hy2⟩) (by assumption) ?_
  case hy2 => (intro w hSw; (try dsimp only at hSw); go_simp; all_goals with_reducible rfl)
  try simp only [Act.put, List.setIfInBounds_toArray, List.set_cons_zero, List.set_cons_succ]
  refine wpAnyH_take (i := 4) (oi := { dst := some 7, op := Op.load 55 (Operand.tmp 1), type := 55, pos := "law.go:67", after := #[{ on := 1, ground := Ground.guard }], guard := some (1, true) }) (v := ?vv3) rfl (by kernel_rfl) (by kernel_rfl) (by kernel_rfl) (fun _ _ _ h => h) (Or.inl ⟨by rfl, ?hy3⟩) (by assumption) ?_
  case hy3 => (intro w hSw; (try dsimp only at hSw); go_simp; all_goals with_reducible rfl)
  try simp only [Act.put, List.setIfInBounds_toArray, List.set_cons_zero, List.set_cons_succ]
  refine wpAnyH_ready (rs := [3]) (by kernel_rfl) (by simp) ?_
  refine AllReadyH.cons (o := { dst := some 6, op := Op.call { callee := Callee.value (Operand.func 13), args := #[Operand.tmp 5], argTypes := #[55] }, type := 9, pos := "law.go:67", after := #[{ on := 2, ground := Ground.data }, { on := 1, ground := Ground.chain }, { on := 1, ground := Ground.guard }], guard := some (1, true) }) rfl (fun K hK => ?_) AllReadyH.nil
  refine ite_take (by rfl) ?_
  go_simp
  refine (HF1.out _ (hHeld.2.2.2.2.2.2.2.2.2.2.2).bel).mono ?_
  rintro e' Wxx ⟨rfl, bX⟩
  have HSWxx := hid (FS.step hHeld.2.2.2.2.2.2.2.2.2.2.2 bX)
  clear bX hHeld
  go_wp2_with fail
  refine hK.out _ _ (HC.out _ HSWxx.out) (fun hHeld => ?_)
  clear hK K
  try simp only [Act.put, List.setIfInBounds_toArray, List.set_cons_zero, List.set_cons_succ]
  refine wpAnyH_ready (rs := [5]) (by kernel_rfl) (by simp) ?_
  refine AllReadyH.cons (o := { dst := some 8, op := Op.call { callee := Callee.value (Operand.func 14), args := #[Operand.tmp 7], argTypes := #[55] }, type := 9, pos := "law.go:67", after := #[{ on := 4, ground := Ground.data }, { on := 3, ground := Ground.chain }, { on := 1, ground := Ground.guard }], guard := some (1, true) }) rfl (fun K hK => ?_) AllReadyH.nil
  refine ite_take (by rfl) ?_
  go_simp
  refine (HF2.out _ (hHeld.2.2.2.2.2.2.2.2.2.2.2).bel).mono ?_
  rintro e' Wxxx ⟨rfl, bX⟩
  have HSWxxx := hid (FS.step hHeld.2.2.2.2.2.2.2.2.2.2.2 bX)
  clear bX hHeld
  go_wp2_with fail
  refine hK.out _ _ (HC.out _ HSWxxx.out) (fun hHeld => ?_)
  clear hK K
  try simp only [Act.put, List.setIfInBounds_toArray, List.set_cons_zero, List.set_cons_succ]
  refine wpAnyH_take (i := 6) (oi := { dst := some 9, op := Op.binOp BinOp.eql 9 (Operand.tmp 6) (Operand.tmp 8) 9, type := 4, pos := "law.go:67", after := #[{ on := 3, ground := Ground.data }, { on := 5, ground := Ground.data }, { on := 1, ground := Ground.guard }], guard := some (1, true) }) (v := ?vv4) rfl (by kernel_rfl) (by kernel_rfl) (by kernel_rfl) (fun _ _ _ h => h) (Or.inl ⟨by rfl, ?hy4⟩) (by assumption) ?_
  case hy4 => (intro w hSw; (try dsimp only at hSw); go_simp; all_goals with_reducible rfl)
  try simp only [Act.put, List.setIfInBounds_toArray, List.set_cons_zero, List.set_cons_succ]
  refine wpAnyH_take (i := 7) (oi := { dst := some 10, op := Op.pick (Operand.tmp 4) (Operand.tmp 9) (Operand.const (Value.bool false)), type := 4, pos := "law.go:67", after := #[{ on := 1, ground := Ground.data }, { on := 6, ground := Ground.data }], guard := none }) (v := ?vv5) rfl (by kernel_rfl) (by kernel_rfl) (by kernel_rfl) (fun _ _ _ h => h) (Or.inl ⟨by rfl, ?hy5⟩) (by assumption) ?_
  case hy5 => (intro w hSw; (try dsimp only at hSw); go_simp; all_goals with_reducible rfl)
  try simp only [Act.put, List.setIfInBounds_toArray, List.set_cons_zero, List.set_cons_succ]
  refine wpAnyH_take (i := 8) (oi := { dst := some 2, op := Op.assign (Operand.tmp 10), type := 4, pos := "law.go:67", after := #[{ on := 7, ground := Ground.data }, { on := 5, ground := Ground.chain }, { on := 0, ground := Ground.phase }, { on := 1, ground := Ground.phase }, { on := 2, ground := Ground.phase }, { on := 3, ground := Ground.phase }, { on := 4, ground := Ground.phase }, { on := 5, ground := Ground.phase }, { on := 6, ground := Ground.phase }, { on := 7, ground := Ground.phase }], guard := none }) (v := ?vv6) rfl (by kernel_rfl) (by kernel_rfl) (by kernel_rfl) (fun _ _ _ h => h) (Or.inl ⟨by rfl, ?hy6⟩) (by assumption) ?_
  case hy6 => (intro w hSw; (try dsimp only at hSw); go_simp; all_goals with_reducible rfl)
  try simp only [Act.put, List.setIfInBounds_toArray, List.set_cons_zero, List.set_cons_succ]
  refine wpAnyH_done (by kernel_rfl) ?_ _
  go_wp2_with fail
  go_ret
  exact ⟨by simp, (hHeld.2.2.2.2.2.2.2.2.2.2.2).bel⟩
end Go.Proofs.YtghppkfopglgaaaGreatDoor
namespace Go.Proofs.YtghppkfopglgaaaGreatDoor
open Go.ChangeShapes Go.WideShapes Go.ChangeAt Go.RowKit Go.Deep
open Go.ChangeMaps (open_string shut_string)
set_option linter.unusedVariables false
set_option linter.unusedSimpArgs false
theorem cells55 : Tryz.prog.cellsOf 55 = 11 := by kernel_rfl
theorem cells97 : Tryz.prog.cellsOf 97 = 2 := by kernel_rfl
theorem cells2' : Tryz.prog.cellsOf 2 = 1 := by kernel_rfl
theorem cells3 : Tryz.prog.cellsOf 3 = 1 := by kernel_rfl
theorem cells4 : Tryz.prog.cellsOf 4 = 1 := by kernel_rfl
theorem cells53 : Tryz.prog.cellsOf 53 = 1 := by kernel_rfl
theorem bytes97 : Tryz.prog.bytesOf 97 = 16 := by kernel_rfl
def intOf' : Value → Int
  | .int _ n => n
  | _ => 0
theorem bulk_one {H : Type} (d : DataW H) : 1 ≤ Rows.uptoBulk d := by
  cases d with
  | lit l => cases l <;> simp [Rows.uptoBulk]
  | nil => simp [Rows.uptoBulk]
  | ptr d => simp [Rows.uptoBulk]
  | slice elems spare => simp [Rows.uptoBulk]
  | agg parts => simp [Rows.uptoBulk]
  | iface t d => simp [Rows.uptoBulk]
  | map entries => simp [Rows.uptoBulk]
  | held h => simp [Rows.uptoBulk]
theorem bulkAll_len {H : Type} (ds : List (DataW H)) : ds.length ≤ Rows.uptoBulkAll ds := by
  induction ds with
  | nil => simp [Rows.uptoBulkAll]
  | cons d r ih =>
    have := bulk_one d
    simp only [Rows.uptoBulkAll, List.length_cons]
    omega

/-- params among the arguments -/
theorem open_params_upto {H : Type} {enc : TypeId × Value → H} {W : World} {v : Value} {n : Nat} {x : DataW H × List MemPlace} (h : DataW.trod enc Tryz.prog W 0 (fun _ => true) true n 53 [v] = some x) (hsz : ∀ n ∈ x.1.weights Tryz.prog 53, n ≤ reachBytes) :
    ∃ ps, InP W v ps ∧ ps.length * 16 ≤ 140737488351232 ∧ ps.length ≤ Rows.uptoBulk x.1 ∧ ∀ p ∈ ps, I64 p.1 ∧ I64 p.2 := by
  rcases open_slice_pairs Tryz.underlying53 Tryz.underlying97 cells97 rfl rfl cells3 cells2' h with ⟨hc, _⟩ | ⟨a, len, cap, m, k, V0, V1, D0, D1, P0, P1, hc, _, hl, hm, hmm, hx, hall⟩
  · simp only [List.cons.injEq, and_true] at hc
    exact ⟨[], .inl ⟨⟨none, 0, hc⟩, rfl⟩, by simp, by simp, fun p hp => absurd hp (by simp)⟩
  · simp only [List.cons.injEq, and_true] at hc
    simp only [if_true] at hmm
    subst hmm
    have hw : len * 16 ≤ 140737488351232 := by
      have := hsz (((List.range len).map fun i => DataW.agg [D0 i, D1 i]).length * 16 + ((List.range (m - len)).map fun j => DataW.agg [D0 (len + j), D1 (len + j)]).length * 16) (by
        rw [hx]
        simp only [DataW.weights, Tryz.underlying53, bytes97, List.mem_cons]
        exact .inl (by rw [Nat.add_mul]))
      simp only [List.length_map, List.length_range, reachBytes] at this
      omega
    by_cases h0 : len = 0
    · subst h0
      exact ⟨[], .inl ⟨⟨some a, m, hc⟩, rfl⟩, by simp, by simp, fun p hp => absurd hp (by simp)⟩
    · obtain ⟨B, off, spot⟩ := a
      obtain ⟨z0, _⟩ := hall 0 (by omega)
      have hsp : spot = none := by
        have := spot_none z0
        simpa [Addr.add] using this
      subst hsp
      have hbk : len ≤ Rows.uptoBulk x.1 := by
        rw [hx]
        have := bulkAll_len ((List.range len).map fun i => DataW.agg [D0 i, D1 i])
        simp only [List.length_map, List.length_range] at this
        simp only [Rows.uptoBulk]
        omega
      refine ⟨(List.range len).map fun i => (intOf' (V0 i), intOf' (V1 i)), .inr ⟨B, off, m, ?_, ?_, ?_, ?_, ?_⟩, ?_, by simpa using hbk, ?_⟩
      · rw [hc]; simp
      · simpa using hl
      · unfold maxLen at hm; omega
      · have := World.block_lt_of_cell? _ _ z0
        simpa [Addr.add] using this
      · intro i p hp
        have hi' : i < len := by have := (List.getElem?_eq_some_iff.1 hp).1; simpa using this
        obtain ⟨c0, c1, t0, t1⟩ := hall i (by omega)
        obtain ⟨n0, e0, _⟩ := DataW.trod_int Tryz.underlying3 t0
        obtain ⟨n1, e1, _⟩ := DataW.trod_int Tryz.underlying2 t1
        simp only [List.cons.injEq, and_true] at e0 e1
        rw [e0] at c0
        rw [e1] at c1
        rw [List.getElem?_map, List.getElem?_range hi', Option.map_some, Option.some.injEq] at hp
        subst hp
        simp only [e0, e1, intOf']
        rw [Addr.add_lit] at c0 c1
        exact ⟨c0, by rw [Nat.add_assoc]; exact c1⟩
      · simpa using hw
      · intro p hp
        obtain ⟨i, hi, rfl⟩ := List.mem_map.1 hp
        have hi' : i < len := List.mem_range.1 hi
        obtain ⟨c0, c1, t0, t1⟩ := hall i (by omega)
        obtain ⟨n0, e0, _, y0⟩ := DataW.trod_int Tryz.underlying3 t0
        obtain ⟨n1, e1, _, y1⟩ := DataW.trod_int Tryz.underlying2 t1
        simp only [List.cons.injEq, and_true] at e0 e1
        simp only [e0, e1, intOf']
        exact ⟨wf_I64 y0, wf_I64 y1⟩

set_option maxRecDepth 20000 in
theorem open_frame_upto {H : Type} {enc : TypeId × Value → H} {W : World} {v : Value} {d : DataW H} {p : List MemPlace} {b0 : Nat} (hval : Value.okWide Tryz.prog W .any b0 55 v) (h : DataW.Trod enc Tryz.prog W 0 (fun _ => true) true 55 v d p) (hsz : ∀ n ∈ d.weights Tryz.prog 55, n ≤ reachBytes) (hbk : Rows.uptoBulk d ≤ 1048576) :
    ∃ (f : Fm) (v' : Value), v = .agg (fmA f v') ∧ InP W v' f.ps ∧ f.Ok ∧ f.ps.length + f.da.size ≤ 1048576 := by
  obtain ⟨cs, rfl, hcs⟩ := okWide_struct Tryz.underlying55 hval
  rw [cells55] at hcs
  obtain ⟨fuel, hf0⟩ := h
  obtain ⟨xs, k', hk, hxy, _, hxl, hf⟩ := DataW.trod_struct Tryz.underlying55 hf0
  have hlen : cs.toList.length = 11 := by simpa using hcs
  obtain ⟨l⟩ := cs
  match xs, hxl, l, hlen with
  | [y0, y1, y2, y3, y4, y5, y6, y7, y8, y9, y10], _, [v0, v1, v2, v3, v4, v5, v6, v7, v8, v9, v10], _ =>
    have g0 := hf 0 _ rfl
    have g1 := hf 1 _ rfl
    have g2 := hf 2 _ rfl
    have g3 := hf 3 _ rfl
    have g4 := hf 4 _ rfl
    have g5 := hf 5 _ rfl
    have g6 := hf 6 _ rfl
    have g7 := hf 7 _ rfl
    have g8 := hf 8 _ rfl
    have g9 := hf 9 _ rfl
    have g10 := hf 10 _ rfl
    simp [cells3, cells4, cells9, cells2', cells53, Value.cells] at g0 g1 g2 g3 g4 g5 g6 g7 g8 g9 g10
    obtain ⟨n0, e0, q0, w0⟩ := DataW.trod_int Tryz.underlying3 g0
    obtain ⟨n1, e1, q1, w1⟩ := DataW.trod_int Tryz.underlying3 g1
    obtain ⟨n2, e2, q2, w2⟩ := DataW.trod_int Tryz.underlying2 g2
    obtain ⟨s3, e3, q3, _⟩ := DataW.trod_string Tryz.underlying9 g3
    obtain ⟨n4, e4, q4, w4⟩ := DataW.trod_int Tryz.underlying3 g4
    obtain ⟨n5, e5, q5, w5⟩ := DataW.trod_int Tryz.underlying2 g5
    obtain ⟨b6, e6, q6⟩ := DataW.trod_bool Tryz.underlying4 g6
    obtain ⟨n7, e7, q7, w7⟩ := DataW.trod_int Tryz.underlying3 g7
    obtain ⟨n8, e8, q8, w8⟩ := DataW.trod_int Tryz.underlying2 g8
    obtain ⟨n9, e9, q9, w9⟩ := DataW.trod_int Tryz.underlying2 g9
    simp only [List.cons.injEq, and_true] at e0 e1 e2 e3 e4 e5 e6 e7 e8 e9
    subst e0 e1 e2 e3 e4 e5 e6 e7 e8 e9
    have hd : d = .agg ([y0, y1, y2, y3, y4, y5, y6, y7, y8, y9, y10].map (·.1)) := congrArg Prod.fst hxy
    have hw3 : s3.size ≤ 140737488351232 := by
      have := hsz s3.size (by
        rw [hd, q3]
        simp [DataW.weights, Tryz.underlying55, DataW.weightsEach])
      simpa [reachBytes] using this
    obtain ⟨ps, hP, hl, hbl, hpo⟩ := open_params_upto g10 (fun n hn => hsz n (by
      rw [hd]
      simp only [DataW.weights, Tryz.underlying55, List.map_cons, List.map_nil, DataW.weightsEach, List.mem_append]
      simp [hn]))
    obtain ⟨pb, pl, pc, hv10⟩ : ∃ pb pl pc, v10 = .slice pb pl pc := by
      rcases hP with ⟨⟨b, cap, rfl⟩, _⟩ | ⟨B, off, cap, rfl, _⟩
      · exact ⟨_, _, _, rfl⟩
      · exact ⟨_, _, _, rfl⟩
    subst hv10
    refine ⟨⟨n0, n1, n2, s3, n4, n5, b6, n7, n8, n9, ps⟩, .slice pb pl pc, rfl, hP, ⟨wf_I64 w0, wf_I64 w1, wf_I64 w2, wf_I64 w4, wf_I64 w5, wf_I64 w7, wf_I64 w8, wf_I64 w9, hpo⟩, ?_⟩
    rw [hd] at hbk
    simp only [List.map_cons, List.map_nil, Rows.uptoBulk, Rows.uptoBulkAll, q3] at hbk
    have hq : s3.data.toList.length = s3.size := by simp
    show ps.length + s3.size ≤ 1048576
    omega
end Go.Proofs.YtghppkfopglgaaaGreatDoor
