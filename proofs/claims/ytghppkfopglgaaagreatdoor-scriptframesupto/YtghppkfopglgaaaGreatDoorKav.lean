/- The document's Frame. What the law's head asks, plain. The law's head. -/
import Derived.Test.YtghppkfopglgaaaGreatDoorKat
import Derived.Test.YtghppkfopglgaaaGreatDoorKau
import Derived.OrdersHeld
import Derived.Deep.RegionHeld
namespace Go.Proofs.YtghppkfopglgaaaGreatDoor
open Go.RowKit
set_option linter.unusedVariables false
set_option linter.unusedSimpArgs false
/-- words behind a text, a blank ahead of each -/
def addW (T : ByteArray) (l : List ByteArray) : ByteArray := bt (T.data.toList ++ spS l)
theorem addW_nil (T : ByteArray) : addW T [] = T := by unfold addW spS; simp [bt_data]
theorem addW_app (T : ByteArray) (a b : List ByteArray) : addW (addW T a) b = addW T (a ++ b) := by
  unfold addW
  rw [bt_toList, spS_app, List.append_assoc]
theorem spS_one (b : ByteArray) : spS [b] = 32 :: b.data.toList := by simp [spS]
theorem spS_two (a b : ByteArray) : spS [a, b] = 32 :: a.data.toList ++ 32 :: b.data.toList := by simp [spS]
theorem decimal_i (n : Int) (hn : I64 n) (w : World) : Calls Tryz.prog 34 #[.int .i64 n] w fun e w' => e = .returned (.string (iB n)) ∧ Below w.heap.size w w' := decimal_any n hn w
theorem iB_size (n : Int) (h : I64 n) : (iB n).size ≤ 30 := by rw [sz_eq]; exact itoa_len n h.1 h.2
theorem iB_list (n : Int) : (iB n).data.toList = Lib.itoa n := rfl
set_option maxRecDepth 100000 in
set_option maxHeartbeats 16000000 in
theorem rframe_any (f : Fm) (hf : f.Ok) (hda : f.da.size ≤ 4398046511104) (hps : f.ps.length ≤ 268435456) (v : Value) (w : World) (hE : Env w) (hP : InP w v f.ps) : Calls Tryz.prog 14 #[.agg (fmA f v)] w fun e w' => e = .returned (.string (bt (frT f))) ∧ Below w.heap.size w w' := by
  obtain ⟨pb, pn, pc, hv, hpn⟩ : ∃ a n c, v = .slice a n c ∧ n = f.ps.length := by
    rcases hP with ⟨⟨b, c, rfl⟩, e⟩ | ⟨bk, off, cap, rfl, _⟩
    · exact ⟨_, _, _, rfl, by rw [e]; rfl⟩
    · exact ⟨_, _, _, rfl, rfl⟩
  subst hv
  obtain ⟨F, hF⟩ : ∃ F, f = F := ⟨_, rfl⟩
  obtain ⟨ty, fl, st, da, pad, dep, ex, wt, cd, la, ps⟩ := f
  obtain ⟨i1, i2, i3, i4, i5, i6, i7, i8, i9⟩ := hf
  simp only at i1 i2 i3 i4 i5 i6 i7 i8 i9 hda hps hpn hP
  obtain ⟨g1, hg1⟩ : ∃ g1, w.heap.size = g1 := ⟨_, rfl⟩
  obtain ⟨cs, hcs⟩ : ∃ cs, fmA ⟨ty, fl, st, da, pad, dep, ex, wt, cd, la, ps⟩ (.slice pb pn pc) = cs := ⟨_, rfl⟩
  rw [hcs]
  obtain ⟨W1, hW1⟩ : ∃ V, w.alloc (.cells cs 55) = V := ⟨_, rfl⟩
  have q1 : W1.heap[g1]? = some (.cells cs 55 (0, 0)) := by rw [← hW1, heap_al, if_pos hg1.symm]
  have b1 : Below w.heap.size w W1 := by rw [← hW1]; exact bel1 _ _
  have HS1 : Hid (FS g1 cs w W1) := hid ⟨b1, q1, hE.of b1.size fun k hk => b1.block k (by have := hE.sz; omega)⟩
  have g8 : 8 ≤ g1 := by have := hE.sz; omega
  have hc0 : cs[0]? = some (.int .i64 ty) := by rw [← hcs]; rfl
  have HC0 : Hid (∀ W, FS g1 cs w W → W.cell? ⟨g1, 0, none⟩ = some (.int .i64 ty)) := hid (fun W h => (cell_blk h.blk 0).trans hc0)
  have hc1 : cs[1]? = some (.int .i64 fl) := by rw [← hcs]; rfl
  have HC1 : Hid (∀ W, FS g1 cs w W → W.cell? ⟨g1, 1, none⟩ = some (.int .i64 fl)) := hid (fun W h => (cell_blk h.blk 1).trans hc1)
  have hc2 : cs[2]? = some (.int .i64 st) := by rw [← hcs]; rfl
  have HC2 : Hid (∀ W, FS g1 cs w W → W.cell? ⟨g1, 2, none⟩ = some (.int .i64 st)) := hid (fun W h => (cell_blk h.blk 2).trans hc2)
  have hc3 : cs[3]? = some (.string da) := by rw [← hcs]; rfl
  have HC3 : Hid (∀ W, FS g1 cs w W → W.cell? ⟨g1, 3, none⟩ = some (.string da)) := hid (fun W h => (cell_blk h.blk 3).trans hc3)
  have hc4 : cs[4]? = some (.int .i64 pad) := by rw [← hcs]; rfl
  have HC4 : Hid (∀ W, FS g1 cs w W → W.cell? ⟨g1, 4, none⟩ = some (.int .i64 pad)) := hid (fun W h => (cell_blk h.blk 4).trans hc4)
  have hc5 : cs[5]? = some (.int .i64 dep) := by rw [← hcs]; rfl
  have HC5 : Hid (∀ W, FS g1 cs w W → W.cell? ⟨g1, 5, none⟩ = some (.int .i64 dep)) := hid (fun W h => (cell_blk h.blk 5).trans hc5)
  have hc6 : cs[6]? = some (.bool ex) := by rw [← hcs]; rfl
  have HC6 : Hid (∀ W, FS g1 cs w W → W.cell? ⟨g1, 6, none⟩ = some (.bool ex)) := hid (fun W h => (cell_blk h.blk 6).trans hc6)
  have hc7 : cs[7]? = some (.int .i64 wt) := by rw [← hcs]; rfl
  have HC7 : Hid (∀ W, FS g1 cs w W → W.cell? ⟨g1, 7, none⟩ = some (.int .i64 wt)) := hid (fun W h => (cell_blk h.blk 7).trans hc7)
  have hc8 : cs[8]? = some (.int .i64 cd) := by rw [← hcs]; rfl
  have HC8 : Hid (∀ W, FS g1 cs w W → W.cell? ⟨g1, 8, none⟩ = some (.int .i64 cd)) := hid (fun W h => (cell_blk h.blk 8).trans hc8)
  have hc9 : cs[9]? = some (.int .i64 la) := by rw [← hcs]; rfl
  have HC9 : Hid (∀ W, FS g1 cs w W → W.cell? ⟨g1, 9, none⟩ = some (.int .i64 la)) := hid (fun W h => (cell_blk h.blk 9).trans hc9)
  have hc10 : cs[10]? = some (.slice pb pn pc) := by rw [← hcs]; rfl
  have HC10 : Hid (∀ W, FS g1 cs w W → W.cell? ⟨g1, 10, none⟩ = some (.slice pb pn pc)) := hid (fun W h => (cell_blk h.blk 10).trans hc10)
  have HC : Hid (∀ W, FS g1 cs w W → W.cell? ⟨g1, 0, none⟩ = some (.int .i64 ty) ∧ W.cell? ⟨g1, 1, none⟩ = some (.int .i64 fl) ∧ W.cell? ⟨g1, 2, none⟩ = some (.int .i64 st) ∧ FS g1 cs w W) := hid (fun W h => ⟨HC0.out W h, HC1.out W h, HC2.out W h, h⟩)
  have HW1 := hid hW1
  have HG1 := hid hg1
  have HD : Hid (FS g1 cs w W1.drew) := hid (HS1.out.step (Below.refl _ W1).drew)
  have HIP := hid hP
  have HI9 := hid i9
  have HPN := hid hpn
  obtain ⟨T0, hT0⟩ : ∃ T, addW (iB ty) [iB fl, iB st] = T := ⟨_, rfl⟩
  have y1 := iB_size ty i1
  have y2 := iB_size fl i2
  have y3 := iB_size st i3
  have z0 : T0.size ≤ 92 := by rw [← hT0]; unfold addW; rw [sz_eq, bt_toList, spS_two]; rw [sz_eq] at y1 y2 y3; simp only [List.length_append, List.length_cons]; omega
  obtain ⟨D, hD⟩ : ∃ D, 4 * da.size = D := ⟨_, rfl⟩
  obtain ⟨T1, hT1⟩ : ∃ T, (if da = ⟨#[]⟩ then T0 else addW T0 [dataB, bt (qtS da.data.toList)]) = T := ⟨_, rfl⟩
  have zq : (bt (qtS da.data.toList)).size ≤ D + 2 := by rw [sz_eq, bt_toList]; have := qtS_len da.data.toList; rw [← sz_eq] at this; omega
  have z1 : T1.size ≤ D + 110 := by
    rw [← hT1]
    split
    · omega
    · unfold addW
      rw [sz_eq, bt_toList, spS_two]
      rw [sz_eq] at z0 zq
      simp only [List.length_append, List.length_cons]
      have : dataB.data.toList.length = 4 := rfl
      omega
  obtain ⟨T2, hT2⟩ : ∃ T, addW T1 (nmW padB pad) = T := ⟨_, rfl⟩
  have yT2 := iB_size pad i4
  have z2 : T2.size ≤ D + 150 := by
    rw [← hT2]
    unfold addW nmW
    rw [sz_eq, bt_toList]
    rw [sz_eq] at z1 yT2
    split
    · simp only [spS, List.flatMap_nil, List.length_append, List.length_nil]; omega
    · rw [spS_two]
      simp only [List.length_append, List.length_cons]
      have : padB.data.toList.length = 3 := rfl
      omega
  obtain ⟨T3, hT3⟩ : ∃ T, addW T2 (nmW depB dep) = T := ⟨_, rfl⟩
  have yT3 := iB_size dep i5
  have z3 : T3.size ≤ D + 190 := by
    rw [← hT3]
    unfold addW nmW
    rw [sz_eq, bt_toList]
    rw [sz_eq] at z2 yT3
    split
    · simp only [spS, List.flatMap_nil, List.length_append, List.length_nil]; omega
    · rw [spS_two]
      simp only [List.length_append, List.length_cons]
      have : depB.data.toList.length = 3 := rfl
      omega
  obtain ⟨T4, hT4⟩ : ∃ T, addW T3 (if ex then [exclB] else []) = T := ⟨_, rfl⟩
  have z4 : T4.size ≤ D + 200 := by
    rw [← hT4]
    unfold addW
    rw [sz_eq, bt_toList]
    rw [sz_eq] at z3
    split
    · rw [spS_one]
      simp only [List.length_append, List.length_cons]
      have : exclB.data.toList.length = 4 := rfl
      omega
    · simp only [spS, List.flatMap_nil, List.length_append, List.length_nil]; omega
  obtain ⟨T5, hT5⟩ : ∃ T, addW T4 (nmW wtB wt) = T := ⟨_, rfl⟩
  have yT5 := iB_size wt i6
  have z5 : T5.size ≤ D + 240 := by
    rw [← hT5]
    unfold addW nmW
    rw [sz_eq, bt_toList]
    rw [sz_eq] at z4 yT5
    split
    · simp only [spS, List.flatMap_nil, List.length_append, List.length_nil]; omega
    · rw [spS_two]
      simp only [List.length_append, List.length_cons]
      have : wtB.data.toList.length = 6 := rfl
      omega
  obtain ⟨T6, hT6⟩ : ∃ T, addW T5 (nmW codeB cd) = T := ⟨_, rfl⟩
  have yT6 := iB_size cd i7
  have z6 : T6.size ≤ D + 280 := by
    rw [← hT6]
    unfold addW nmW
    rw [sz_eq, bt_toList]
    rw [sz_eq] at z5 yT6
    split
    · simp only [spS, List.flatMap_nil, List.length_append, List.length_nil]; omega
    · rw [spS_two]
      simp only [List.length_append, List.length_cons]
      have : codeB.data.toList.length = 4 := rfl
      omega
  obtain ⟨T7, hT7⟩ : ∃ T, addW T6 (nmW lastB la) = T := ⟨_, rfl⟩
  have yT7 := iB_size la i8
  have z7 : T7.size ≤ D + 320 := by
    rw [← hT7]
    unfold addW nmW
    rw [sz_eq, bt_toList]
    rw [sz_eq] at z6 yT7
    split
    · simp only [spS, List.flatMap_nil, List.length_append, List.length_nil]; omega
    · rw [spS_two]
      simp only [List.length_append, List.length_cons]
      have : lastB.data.toList.length = 4 := rfl
      omega
  have HFR : Hid (addW T7 (ps.flatMap pmW) = bt (frT F)) := hid (by
    rw [frT_sp, ← hF]
    simp only [Fm.w1]
    rw [← hT7, ← hT6, ← hT5, ← hT4, ← hT3, ← hT2, ← hT1, ← hT0]
    unfold addW
    congr 1
    simp only [bt_toList, spS_app, iB_list, List.append_assoc]
    split
    · simp only [bt_toList, spS_app, iB_list, List.append_assoc, spS, List.flatMap_nil, List.nil_append]
    · simp only [bt_toList, spS_app, iB_list, List.append_assoc])
  have HT0 := hid hT0
  have HT1 := hid hT1
  have HT2 := hid hT2
  have HT3 := hid hT3
  have HT4 := hid hT4
  have HT5 := hid hT5
  have HT6 := hid hT6
  have HT7 := hid hT7
  have hD9 : D ≤ 17592186044416 := by omega
  rw [hF]
  have HDA := hid hda
  have HZQ := hid zq
  have HDD := hid hD
  clear hE q1 b1 hW1 hcs hg1 hF hP i9 hpn hc0 hc1 hc2 hc3 hc4 hc5 hc6 hc7 hc8 hc9 hc10 hT0 hT1 hT2 hT3 hT4 hT5 hT6 hT7 zq hD hda
  go_enter Tryz.func14, Tryz.ntmps14
  go_upto_region 1 with fail
  try rw [HW1.out, HG1.out]
  go_cut [3] from 5 (fun v wx => v = .string T0 ∧ Hid (FS g1 cs w wx))
  case first =>
    have HA0 : Hid (iB ty ++ (⟨#[32]⟩ : ByteArray) ++ iB fl ++ ⟨#[32]⟩ ++ iB st = T0) := hid (by
      rw [← HT0.out]
      refine ba_eq ?_
      unfold addW
      rw [bt_toList, spS_two]
      simp [ByteArray.data_append])
    have s1 : ¬ 9223372036854775807 < (iB ty).size + 1 := by omega
    have s2 : ¬ 9223372036854775807 < (iB ty).size + 1 + (iB fl).size := by omega
    have s3 : ¬ 9223372036854775807 < (iB ty).size + 1 + (iB fl).size + 1 := by omega
    have s4 : ¬ 9223372036854775807 < (iB ty).size + 1 + (iB fl).size + 1 + (iB st).size := by omega
    refine wp_region_held_drew (S := (fun W => W.cell? ⟨g1, 0, none⟩ = some (.int .i64 ty) ∧ W.cell? ⟨g1, 1, none⟩ = some (.int .i64 fl) ∧ W.cell? ⟨g1, 2, none⟩ = some (.int .i64 st) ∧ FS g1 cs w W)) (by kernel_rfl) (HC.out _ HD.out) (fun hHeld => ?_)
    generalize World.drew _ = W at hHeld ⊢
    refine wpAnyH_take (i := 0) (oi := { dst := some 5, op := Op.fieldAddr 55 (Operand.tmp 1) 0, type := 0, pos := "ref.go:545", after := #[], guard := none }) (v := ?vv1) rfl (by kernel_rfl) (by kernel_rfl) (by kernel_rfl) (fun _ _ _ h => h) (Or.inl ⟨by rfl, ?hy1⟩) (by assumption) ?_
    case hy1 => (intro w hSw; (try dsimp only at hSw); go_simp; all_goals with_reducible rfl)
    try simp only [Act.put, List.setIfInBounds_toArray, List.set_cons_zero, List.set_cons_succ]
    refine wpAnyH_take (i := 1) (oi := { dst := some 6, op := Op.load 3 (Operand.tmp 5), type := 3, pos := "ref.go:545", after := #[{ on := 0, ground := Ground.data }], guard := none }) (v := ?vv2) rfl (by kernel_rfl) (by kernel_rfl) (by kernel_rfl) (fun _ _ _ h => h) (Or.inl ⟨by rfl, ?hy2⟩) (by assumption) ?_
    case hy2 => (intro w hSw; (try dsimp only at hSw); go_simp; all_goals with_reducible rfl)
    try simp only [Act.put, List.setIfInBounds_toArray, List.set_cons_zero, List.set_cons_succ]
    refine wpAnyH_take (i := 4) (oi := { dst := some 9, op := Op.fieldAddr 55 (Operand.tmp 1) 1, type := 0, pos := "ref.go:545", after := #[], guard := none }) (v := ?vv3) rfl (by kernel_rfl) (by kernel_rfl) (by kernel_rfl) (fun _ _ _ h => h) (Or.inl ⟨by rfl, ?hy3⟩) (by assumption) ?_
    case hy3 => (intro w hSw; (try dsimp only at hSw); go_simp; all_goals with_reducible rfl)
    try simp only [Act.put, List.setIfInBounds_toArray, List.set_cons_zero, List.set_cons_succ]
    refine wpAnyH_take (i := 5) (oi := { dst := some 10, op := Op.load 3 (Operand.tmp 9), type := 3, pos := "ref.go:545", after := #[{ on := 4, ground := Ground.data }], guard := none }) (v := ?vv4) rfl (by kernel_rfl) (by kernel_rfl) (by kernel_rfl) (fun _ _ _ h => h) (Or.inl ⟨by rfl, ?hy4⟩) (by assumption) ?_
    case hy4 => (intro w hSw; (try dsimp only at hSw); go_simp; all_goals with_reducible rfl)
    try simp only [Act.put, List.setIfInBounds_toArray, List.set_cons_zero, List.set_cons_succ]
    refine wpAnyH_take (i := 9) (oi := { dst := some 14, op := Op.fieldAddr 55 (Operand.tmp 1) 2, type := 0, pos := "ref.go:545", after := #[], guard := none }) (v := ?vv5) rfl (by kernel_rfl) (by kernel_rfl) (by kernel_rfl) (fun _ _ _ h => h) (Or.inl ⟨by rfl, ?hy5⟩) (by assumption) ?_
    case hy5 => (intro w hSw; (try dsimp only at hSw); go_simp; all_goals with_reducible rfl)
    try simp only [Act.put, List.setIfInBounds_toArray, List.set_cons_zero, List.set_cons_succ]
    refine wpAnyH_take (i := 10) (oi := { dst := some 15, op := Op.load 2 (Operand.tmp 14), type := 2, pos := "ref.go:545", after := #[{ on := 9, ground := Ground.data }], guard := none }) (v := ?vv6) rfl (by kernel_rfl) (by kernel_rfl) (by kernel_rfl) (fun _ _ _ h => h) (Or.inl ⟨by rfl, ?hy6⟩) (by assumption) ?_
    case hy6 => (intro w hSw; (try dsimp only at hSw); go_simp; all_goals with_reducible rfl)
    try simp only [Act.put, List.setIfInBounds_toArray, List.set_cons_zero, List.set_cons_succ]
    refine wpAnyH_ready (rs := [2]) (by kernel_rfl) (by simp) ?_
    refine AllReadyH.cons (o := { dst := some 7, op := Op.call { callee := Callee.value (Operand.func 34), args := #[Operand.tmp 6], argTypes := #[2] }, type := 9, pos := "ref.go:545", after := #[{ on := 1, ground := Ground.data }], guard := none }) rfl (fun K hK => ?_) AllReadyH.nil
    go_simp
    refine (decimal_i ty i1 _).mono ?_
    rintro e' Wx ⟨rfl, bX⟩
    have HSWx := hid (FS.step hHeld.2.2.2 bX)
    clear bX hHeld
    go_wp2_with fail
    refine hK.out _ _ (HC.out _ HSWx.out) (fun hHeld => ?_)
    clear hK K
    try simp only [Act.put, List.setIfInBounds_toArray, List.set_cons_zero, List.set_cons_succ]
    refine wpAnyH_take (i := 3) (oi := { dst := some 8, op := Op.binOp BinOp.add 9 (Operand.tmp 7) (Operand.const (Value.string { data := #[32] })) 9, type := 9, pos := "ref.go:545", after := #[{ on := 2, ground := Ground.data }], guard := none }) (v := ?vv7) rfl (by kernel_rfl) (by kernel_rfl) (by kernel_rfl) (fun _ _ _ h => h) (Or.inl ⟨by rfl, ?hy7⟩) (by assumption) ?_
    case hy7 => (intro w hSw; (try dsimp only at hSw); go_simp; all_goals with_reducible rfl)
    try simp only [Act.put, List.setIfInBounds_toArray, List.set_cons_zero, List.set_cons_succ]
    refine wpAnyH_ready (rs := [6]) (by kernel_rfl) (by simp) ?_
    refine AllReadyH.cons (o := { dst := some 11, op := Op.call { callee := Callee.value (Operand.func 34), args := #[Operand.tmp 10], argTypes := #[2] }, type := 9, pos := "ref.go:545", after := #[{ on := 5, ground := Ground.data }, { on := 2, ground := Ground.chain }], guard := none }) rfl (fun K hK => ?_) AllReadyH.nil
    go_simp
    refine (decimal_i fl i2 _).mono ?_
    rintro e' Wxx ⟨rfl, bX⟩
    have HSWxx := hid (FS.step hHeld.2.2.2 bX)
    clear bX hHeld
    go_wp2_with fail
    refine hK.out _ _ (HC.out _ HSWxx.out) (fun hHeld => ?_)
    clear hK K
    try simp only [Act.put, List.setIfInBounds_toArray, List.set_cons_zero, List.set_cons_succ]
    refine wpAnyH_take (i := 7) (oi := { dst := some 12, op := Op.binOp BinOp.add 9 (Operand.tmp 8) (Operand.tmp 11) 9, type := 9, pos := "ref.go:545", after := #[{ on := 3, ground := Ground.data }, { on := 6, ground := Ground.data }], guard := none }) (v := ?vv8) rfl (by kernel_rfl) (by kernel_rfl) (by kernel_rfl) (fun _ _ _ h => h) (Or.inl ⟨by rfl, ?hy8⟩) (by assumption) ?_
    case hy8 => (intro w hSw; (try dsimp only at hSw); go_simp; all_goals with_reducible rfl)
    try simp only [Act.put, List.setIfInBounds_toArray, List.set_cons_zero, List.set_cons_succ]
    refine wpAnyH_take (i := 8) (oi := { dst := some 13, op := Op.binOp BinOp.add 9 (Operand.tmp 12) (Operand.const (Value.string { data := #[32] })) 9, type := 9, pos := "ref.go:545", after := #[{ on := 7, ground := Ground.data }], guard := none }) (v := ?vv9) rfl (by kernel_rfl) (by kernel_rfl) (by kernel_rfl) (fun _ _ _ h => h) (Or.inl ⟨by rfl, ?hy9⟩) (by assumption) ?_
    case hy9 => (intro w hSw; (try dsimp only at hSw); go_simp; all_goals with_reducible rfl)
    try simp only [Act.put, List.setIfInBounds_toArray, List.set_cons_zero, List.set_cons_succ]
    refine wpAnyH_ready (rs := [11]) (by kernel_rfl) (by simp) ?_
    refine AllReadyH.cons (o := { dst := some 16, op := Op.call { callee := Callee.value (Operand.func 34), args := #[Operand.tmp 15], argTypes := #[2] }, type := 9, pos := "ref.go:545", after := #[{ on := 10, ground := Ground.data }, { on := 6, ground := Ground.chain }], guard := none }) rfl (fun K hK => ?_) AllReadyH.nil
    go_simp
    refine (decimal_i st i3 _).mono ?_
    rintro e' Wxxx ⟨rfl, bX⟩
    have HSWxxx := hid (FS.step hHeld.2.2.2 bX)
    clear bX hHeld
    go_wp2_with fail
    refine hK.out _ _ (HC.out _ HSWxxx.out) (fun hHeld => ?_)
    clear hK K
    try simp only [Act.put, List.setIfInBounds_toArray, List.set_cons_zero, List.set_cons_succ]
    refine wpAnyH_take (i := 12) (oi := { dst := some 17, op := Op.binOp BinOp.add 9 (Operand.tmp 13) (Operand.tmp 16) 9, type := 9, pos := "ref.go:545", after := #[{ on := 8, ground := Ground.data }, { on := 11, ground := Ground.data }], guard := none }) (v := ?vv10) rfl (by kernel_rfl) (by kernel_rfl) (by kernel_rfl) (fun _ _ _ h => h) (Or.inl ⟨by rfl, ?hy10⟩) (by assumption) ?_
    case hy10 => (intro w hSw; (try dsimp only at hSw); go_simp; all_goals with_reducible rfl)
    try simp only [Act.put, List.setIfInBounds_toArray, List.set_cons_zero, List.set_cons_succ]
    refine wpAnyH_take (i := 13) (oi := { dst := some 3, op := Op.assign (Operand.tmp 17), type := 9, pos := "ref.go:545", after := #[{ on := 12, ground := Ground.data }, { on := 11, ground := Ground.chain }, { on := 0, ground := Ground.phase }, { on := 1, ground := Ground.phase }, { on := 2, ground := Ground.phase }, { on := 3, ground := Ground.phase }, { on := 4, ground := Ground.phase }, { on := 5, ground := Ground.phase }, { on := 6, ground := Ground.phase }, { on := 7, ground := Ground.phase }, { on := 8, ground := Ground.phase }, { on := 9, ground := Ground.phase }, { on := 10, ground := Ground.phase }, { on := 11, ground := Ground.phase }, { on := 12, ground := Ground.phase }], guard := none }) (v := ?vv11) rfl (by kernel_rfl) (by kernel_rfl) (by kernel_rfl) (fun _ _ _ h => h) (Or.inl ⟨by rfl, ?hy11⟩) (by assumption) ?_
    case hy11 => (intro w hSw; (try dsimp only at hSw); go_simp; all_goals with_reducible rfl)
    try simp only [Act.put, List.setIfInBounds_toArray, List.set_cons_zero, List.set_cons_succ]
    refine wpAnyH_done (by kernel_rfl) ?_ _
    go_wp2_with fail
    go_meet
    case rel => exact ⟨by rw [← HA0.out], hid hHeld.2.2.2⟩
  case rest =>
    obtain ⟨rfl, J0⟩ := hcut
    have e0 := HC3.out _ J0.out
    have l1 := heap_lt J0.out.blk
    go_upto_if 20 with fail
    go_cut [3] from 5 (fun v wx => v = .string T1 ∧ Hid (FS g1 cs w wx))
    case first =>
      cases hq : (!da.toList.isEmpty) with
      | false =>
        have hd : da = ⟨#[]⟩ := by
          rw [ByteArray.toList_eq] at hq
          cases e : da.data.toList with
          | nil => exact ba_eq e
          | cons c r => rw [e] at hq; cases hq
        clear hq
        have hL : T0 = T1 := by rw [← HT1.out, if_pos hd]
        clear hd
        go_wp2_with fail
        go_meet
        case rel => exact ⟨by rw [hL], J0⟩
      | true =>
        have hd : ¬ da = ⟨#[]⟩ := by
          rintro rfl
          rw [ByteArray.toList_eq] at hq
          cases hq
        clear hq
        obtain ⟨QD, hQD⟩ : ∃ Q, bt (qtS da.data.toList) = Q := ⟨_, rfl⟩
        have HA : Hid (T0 ++ (⟨#[32, 100, 97, 116, 97, 32]⟩ : ByteArray) ++ QD = T1) := hid (by
          rw [← HT1.out, if_neg hd, hQD]
          refine ba_eq ?_
          unfold addW
          rw [bt_toList, spS_two]
          simp [ByteArray.data_append, dataB])
        have HQ := hid (fun V => rquote_any da V HDA.out)
        have hzz := HZQ.out
        rw [hQD] at HQ hzz
        have s1 : ¬ 9223372036854775807 < T0.size + 6 := by omega
        have s2 : ¬ 9223372036854775807 < T0.size + 6 + QD.size := by omega
        clear hd hQD
        go_wp2_with fail
        go_at_call 35
        refine (HQ.out _).mono ?_
        rintro e V ⟨rfl, hbq⟩
        have J1 := hid (J0.out.step hbq)
        clear hbq
        go_wp2_with fail
        go_meet
        case rel => exact ⟨by rw [← HA.out], J1⟩
    case rest =>
      obtain ⟨rfl, J1⟩ := hcut
      have e1 := HC4.out _ J1.out
      have m1 := heap_lt J1.out.blk
      go_upto_if 29 with fail
      go_cut [3] from 5 (fun v wx => v = .string T2 ∧ Hid (FS g1 cs w wx))
      case first =>
        by_cases hz : pad = 0
        · have hL : T1 = T2 := by rw [← HT2.out]; unfold nmW; rw [if_pos hz, addW_nil]
          have hb : (pad == 0) = true := by rw [hz]; rfl
          clear hz
          go_wp2_with fail
          go_meet
          case rel => exact ⟨by rw [hL], J1⟩
        · have HA : Hid (T1 ++ (⟨#[32, 112, 97, 100, 32]⟩ : ByteArray) ++ iB pad = T2) := hid (by
            rw [← HT2.out]
            unfold nmW
            rw [if_neg hz]
            refine ba_eq ?_
            unfold addW
            rw [bt_toList, spS_two]
            simp [ByteArray.data_append, padB])
          have hb : (pad == 0) = false := beq_eq_false_iff_ne.2 hz
          have s1 : ¬ 9223372036854775807 < T1.size + 5 := by omega
          have s2 : ¬ 9223372036854775807 < T1.size + 5 + (iB pad).size := by omega
          clear hz
          go_wp2_with fail
          go_at_call 34
          refine (decimal_i pad i4 _).mono ?_
          rintro e V ⟨rfl, hbq⟩
          have J9 := hid (J1.out.step hbq)
          clear hbq
          go_wp2_with fail
          go_meet
          case rel => exact ⟨by rw [← HA.out], J9⟩
      case rest =>
        obtain ⟨rfl, J2⟩ := hcut
        have e2 := HC5.out _ J2.out
        have m2 := heap_lt J2.out.blk
        go_upto_if 38 with fail
        go_cut [3] from 5 (fun v wx => v = .string T3 ∧ Hid (FS g1 cs w wx))
        case first =>
          by_cases hz : dep = 0
          · have hL : T2 = T3 := by rw [← HT3.out]; unfold nmW; rw [if_pos hz, addW_nil]
            have hb : (dep == 0) = true := by rw [hz]; rfl
            clear hz
            go_wp2_with fail
            go_meet
            case rel => exact ⟨by rw [hL], J2⟩
          · have HA : Hid (T2 ++ (⟨#[32, 100, 101, 112, 32]⟩ : ByteArray) ++ iB dep = T3) := hid (by
              rw [← HT3.out]
              unfold nmW
              rw [if_neg hz]
              refine ba_eq ?_
              unfold addW
              rw [bt_toList, spS_two]
              simp [ByteArray.data_append, depB])
            have hb : (dep == 0) = false := beq_eq_false_iff_ne.2 hz
            have s1 : ¬ 9223372036854775807 < T2.size + 5 := by omega
            have s2 : ¬ 9223372036854775807 < T2.size + 5 + (iB dep).size := by omega
            clear hz
            go_wp2_with fail
            go_at_call 34
            refine (decimal_i dep i5 _).mono ?_
            rintro e V ⟨rfl, hbq⟩
            have J9 := hid (J2.out.step hbq)
            clear hbq
            go_wp2_with fail
            go_meet
            case rel => exact ⟨by rw [← HA.out], J9⟩
        case rest =>
          obtain ⟨rfl, J3⟩ := hcut
          have e3 := HC6.out _ J3.out
          have m3 := heap_lt J3.out.blk
          go_upto_if 46 with fail
          go_cut [3] from 5 (fun v wx => v = .string T4 ∧ Hid (FS g1 cs w wx))
          case first =>
            cases ex with
            | false =>
              have hL : T3 = T4 := by rw [← HT4.out, if_neg (by simp), addW_nil]
              go_wp2_with fail
              go_meet
              case rel => exact ⟨by rw [hL], J3⟩
            | true =>
              have HA : Hid (T3 ++ (⟨#[32, 101, 120, 99, 108]⟩ : ByteArray) = T4) := hid (by
                rw [← HT4.out, if_pos rfl]
                refine ba_eq ?_
                unfold addW
                rw [bt_toList, spS_one]
                simp [ByteArray.data_append, exclB])
              have s1 : ¬ 9223372036854775807 < T3.size + 5 := by omega
              go_wp2_with fail
              go_meet
              case rel => exact ⟨by rw [← HA.out], J3⟩
          case rest =>
            obtain ⟨rfl, J4⟩ := hcut
            have e4 := HC7.out _ J4.out
            have m4 := heap_lt J4.out.blk
            go_upto_if 51 with fail
            go_cut [3] from 5 (fun v wx => v = .string T5 ∧ Hid (FS g1 cs w wx))
            case first =>
              by_cases hz : wt = 0
              · have hL : T4 = T5 := by rw [← HT5.out]; unfold nmW; rw [if_pos hz, addW_nil]
                have hb : (wt == 0) = true := by rw [hz]; rfl
                clear hz
                go_wp2_with fail
                go_meet
                case rel => exact ⟨by rw [hL], J4⟩
              · have HA : Hid (T4 ++ (⟨#[32, 119, 101, 105, 103, 104, 116, 32]⟩ : ByteArray) ++ iB wt = T5) := hid (by
                  rw [← HT5.out]
                  unfold nmW
                  rw [if_neg hz]
                  refine ba_eq ?_
                  unfold addW
                  rw [bt_toList, spS_two]
                  simp [ByteArray.data_append, wtB])
                have hb : (wt == 0) = false := beq_eq_false_iff_ne.2 hz
                have s1 : ¬ 9223372036854775807 < T4.size + 8 := by omega
                have s2 : ¬ 9223372036854775807 < T4.size + 8 + (iB wt).size := by omega
                clear hz
                go_wp2_with fail
                go_at_call 34
                refine (decimal_i wt i6 _).mono ?_
                rintro e V ⟨rfl, hbq⟩
                have J9 := hid (J4.out.step hbq)
                clear hbq
                go_wp2_with fail
                go_meet
                case rel => exact ⟨by rw [← HA.out], J9⟩
            case rest =>
              obtain ⟨rfl, J5⟩ := hcut
              have e5 := HC8.out _ J5.out
              have m5 := heap_lt J5.out.blk
              go_upto_if 60 with fail
              go_cut [3] from 5 (fun v wx => v = .string T6 ∧ Hid (FS g1 cs w wx))
              case first =>
                by_cases hz : cd = 0
                · have hL : T5 = T6 := by rw [← HT6.out]; unfold nmW; rw [if_pos hz, addW_nil]
                  have hb : (cd == 0) = true := by rw [hz]; rfl
                  clear hz
                  go_wp2_with fail
                  go_meet
                  case rel => exact ⟨by rw [hL], J5⟩
                · have HA : Hid (T5 ++ (⟨#[32, 99, 111, 100, 101, 32]⟩ : ByteArray) ++ iB cd = T6) := hid (by
                    rw [← HT6.out]
                    unfold nmW
                    rw [if_neg hz]
                    refine ba_eq ?_
                    unfold addW
                    rw [bt_toList, spS_two]
                    simp [ByteArray.data_append, codeB])
                  have hb : (cd == 0) = false := beq_eq_false_iff_ne.2 hz
                  have s1 : ¬ 9223372036854775807 < T5.size + 6 := by omega
                  have s2 : ¬ 9223372036854775807 < T5.size + 6 + (iB cd).size := by omega
                  clear hz
                  go_wp2_with fail
                  go_at_call 34
                  refine (decimal_i cd i7 _).mono ?_
                  rintro e V ⟨rfl, hbq⟩
                  have J9 := hid (J5.out.step hbq)
                  clear hbq
                  go_wp2_with fail
                  go_meet
                  case rel => exact ⟨by rw [← HA.out], J9⟩
              case rest =>
                obtain ⟨rfl, J6⟩ := hcut
                have e6 := HC9.out _ J6.out
                have m6 := heap_lt J6.out.blk
                go_upto_if 69 with fail
                go_cut [3] from 5 (fun v wx => v = .string T7 ∧ Hid (FS g1 cs w wx))
                case first =>
                  by_cases hz : la = 0
                  · have hL : T6 = T7 := by rw [← HT7.out]; unfold nmW; rw [if_pos hz, addW_nil]
                    have hb : (la == 0) = true := by rw [hz]; rfl
                    clear hz
                    go_wp2_with fail
                    go_meet
                    case rel => exact ⟨by rw [hL], J6⟩
                  · have HA : Hid (T6 ++ (⟨#[32, 108, 97, 115, 116, 32]⟩ : ByteArray) ++ iB la = T7) := hid (by
                      rw [← HT7.out]
                      unfold nmW
                      rw [if_neg hz]
                      refine ba_eq ?_
                      unfold addW
                      rw [bt_toList, spS_two]
                      simp [ByteArray.data_append, lastB])
                    have hb : (la == 0) = false := beq_eq_false_iff_ne.2 hz
                    have s1 : ¬ 9223372036854775807 < T6.size + 6 := by omega
                    have s2 : ¬ 9223372036854775807 < T6.size + 6 + (iB la).size := by omega
                    clear hz
                    go_wp2_with fail
                    go_at_call 34
                    refine (decimal_i la i8 _).mono ?_
                    rintro e V ⟨rfl, hbq⟩
                    have J9 := hid (J6.out.step hbq)
                    clear hbq
                    go_wp2_with fail
                    go_meet
                    case rel => exact ⟨by rw [← HA.out], J9⟩
                case rest =>
                  obtain ⟨rfl, J7⟩ := hcut
                  have HPS : Hid (pn = ps.length) := hid (by have := HPN.out; exact this)
                  have hpn9 : pn ≤ 268435456 := by have := HPS.out; omega
                  clear y1 y2 y3 yT2 yT3 yT5 yT6 yT7 z0 z1 z2 z3 z4 z5 z6
                  go_wp2_with fail
                  go_loopw [3, 4] (fun sv iv wr => ∃ (k : Nat) (X : ByteArray), sv = .string X ∧ iv = .int .i64 (k : Int) ∧ k ≤ pn ∧ X.size ≤ D + 320 + 80 * k ∧ Hid (X = addW T7 ((ps.take k).flatMap pmW) ∧ FS g1 cs w wr)) (fun _ iv _ => pn - (intOf iv).toNat)
                  case atStart => exact ⟨0, T7, rfl, rfl, Nat.zero_le _, by omega, hid ⟨by rw [List.take_zero, List.flatMap_nil, addW_nil], J7.out⟩⟩
                  case round =>
                    obtain ⟨k, X, rfl, rfl, hk, hX, HJ⟩ := hrel
                    clear J7 z7
                    have e7 := HC10.out _ HJ.out.2
                    have m7 := heap_lt HJ.out.2.blk
                    by_cases hlt : k < pn
                    · have hltI : (k : Int) < (pn : Int) := by omega
                      have hkl : k < ps.length := by have := HPS.out; omega
                      obtain ⟨bk, off, hpb, hbk, hcl⟩ : ∃ bk off, pb = some ⟨bk, off, none⟩ ∧ bk < w.heap.size ∧ ∀ j p, ps[j]? = some p → w.cell? ⟨bk, off + j * 2, none⟩ = some (.int .i64 p.1) ∧ w.cell? ⟨bk, off + j * 2 + 1, none⟩ = some (.int .i64 p.2) := by
                        rcases HIP.out with ⟨_, e⟩ | ⟨bk, off, cap, e, _, _, h1, h2⟩
                        · rw [e] at hkl; exact absurd hkl (by simp)
                        · injection e with e _ _
                          exact ⟨bk, off, e, h1, h2⟩
                      subst hpb
                      obtain ⟨p, hp⟩ : ∃ p, ps[k]? = some p := ⟨_, List.getElem?_eq_getElem hkl⟩
                      obtain ⟨c1, c2⟩ := hcl k p hp
                      have HPI : Hid (I64 p.1 ∧ I64 p.2) := hid (HI9.out p (List.mem_of_getElem? hp))
                      obtain ⟨X2, hX2⟩ : ∃ X2, addW X [paramB, iB p.1, iB p.2] = X2 := ⟨_, rfl⟩
                      have HMK : addW T7 ((ps.take (k + 1)).flatMap pmW) = X2 := by
                        rw [List.take_add_one, hp, List.flatMap_append, ← addW_app, ← HJ.out.1, ← hX2]
                        simp [pmW]
                      obtain ⟨pi, pv⟩ := p
                      simp only at c1 c2 HPI hX2
                      have y1 := iB_size pi HPI.out.1
                      have y2 := iB_size pv HPI.out.2
                      have spS3 : spS [paramB, iB pi, iB pv] = 32 :: paramB.data.toList ++ 32 :: (iB pi).data.toList ++ 32 :: (iB pv).data.toList := by simp [spS]
                      have hz2 : X2.size ≤ D + 320 + 80 * (k + 1) := by
                        rw [← hX2]
                        unfold addW
                        rw [sz_eq, bt_toList, spS3]
                        rw [sz_eq] at hX y1 y2
                        simp only [List.length_append, List.length_cons]
                        have : paramB.data.toList.length = 5 := rfl
                        omega
                      have HX2 := hid (And.intro hz2 HMK.symm)
                      have HXA : Hid (X ++ (⟨#[32, 112, 97, 114, 97, 109, 32]⟩ : ByteArray) ++ iB pi ++ ⟨#[32]⟩ ++ iB pv = X2) := hid (by
                        rw [← hX2]
                        refine ba_eq ?_
                        unfold addW
                        rw [bt_toList, spS3]
                        simp [ByteArray.data_append, paramB])
                      have s1 : ¬ 9223372036854775807 < X.size + 7 := by omega
                      have s2 : ¬ 9223372036854775807 < X.size + 7 + (iB pi).size := by omega
                      have s3 : ¬ 9223372036854775807 < X.size + 7 + (iB pi).size + 1 := by omega
                      have s4 : ¬ 9223372036854775807 < X.size + 7 + (iB pi).size + 1 + (iB pv).size := by omega
                      have HCP : Hid (∀ W, FS g1 cs w W → W.cell? ⟨g1, 10, none⟩ = some (.slice (some ⟨bk, off, none⟩) pn pc) ∧ W.cell? ⟨bk, off + k * 2, none⟩ = some (.int .i64 pi) ∧ W.cell? ⟨bk, off + k * 2 + 1, none⟩ = some (.int .i64 pv) ∧ FS g1 cs w W) := hid (fun W h => by
                        have hkb : ∀ i, W.cell? ⟨bk, i, none⟩ = w.cell? ⟨bk, i, none⟩ := fun i => by unfold World.cell?; simp only; rw [h.bel.block bk hbk]
                        exact ⟨HC10.out W h, by rw [hkb]; exact c1, by rw [hkb]; exact c2, h⟩)
                      have HD := hid (HJ.out.2.step (Below.refl _ wr).drew)
                      clear hp hkl hcl hbk c1 c2 hX2 HMK hz2 spS3
                      go_upto_region 19 with fail
                      refine wp_region_held_drew (S := (fun W => W.cell? ⟨g1, 10, none⟩ = some (.slice (some ⟨bk, off, none⟩) pn pc) ∧ W.cell? ⟨bk, off + k * 2, none⟩ = some (.int .i64 pi) ∧ W.cell? ⟨bk, off + k * 2 + 1, none⟩ = some (.int .i64 pv) ∧ FS g1 cs w W)) (by kernel_rfl) (HCP.out _ HD.out) (fun hHeld => ?_)
                      generalize World.drew _ = W at hHeld ⊢
                      refine wpAnyH_take (i := 0) (oi := { dst := some 83, op := Op.move (Operand.tmp 3), type := 9, pos := "ref.go:568", after := #[], guard := none }) (v := ?vv12) rfl (by kernel_rfl) (by kernel_rfl) (by kernel_rfl) (fun _ _ _ h => h) (Or.inl ⟨by rfl, ?hy12⟩) (by assumption) ?_
                      case hy12 => (intro w hSw; (try dsimp only at hSw); go_simp; all_goals with_reducible rfl)
                      try simp only [Act.put, List.setIfInBounds_toArray, List.set_cons_zero, List.set_cons_succ]
                      refine wpAnyH_take (i := 1) (oi := { dst := some 84, op := Op.binOp BinOp.add 9 (Operand.tmp 83) (Operand.const (Value.string { data := #[32, 112, 97, 114, 97, 109, 32] })) 9, type := 9, pos := "ref.go:568", after := #[{ on := 0, ground := Ground.data }], guard := none }) (v := ?vv13) rfl (by kernel_rfl) (by kernel_rfl) (by kernel_rfl) (fun _ _ _ h => h) (Or.inl ⟨by rfl, ?hy13⟩) (by assumption) ?_
                      case hy13 => (intro w hSw; (try dsimp only at hSw); go_simp; all_goals with_reducible rfl)
                      try simp only [Act.put, List.setIfInBounds_toArray, List.set_cons_zero, List.set_cons_succ]
                      refine wpAnyH_take (i := 2) (oi := { dst := some 85, op := Op.fieldAddr 55 (Operand.tmp 1) 10, type := 0, pos := "ref.go:568", after := #[], guard := none }) (v := ?vv14) rfl (by kernel_rfl) (by kernel_rfl) (by kernel_rfl) (fun _ _ _ h => h) (Or.inl ⟨by rfl, ?hy14⟩) (by assumption) ?_
                      case hy14 => (intro w hSw; (try dsimp only at hSw); go_simp; all_goals with_reducible rfl)
                      try simp only [Act.put, List.setIfInBounds_toArray, List.set_cons_zero, List.set_cons_succ]
                      refine wpAnyH_take (i := 3) (oi := { dst := some 86, op := Op.load 53 (Operand.tmp 85), type := 53, pos := "ref.go:568", after := #[{ on := 2, ground := Ground.data }], guard := none }) (v := ?vv15) rfl (by kernel_rfl) (by kernel_rfl) (by kernel_rfl) (fun _ _ _ h => h) (Or.inl ⟨by rfl, ?hy15⟩) (by assumption) ?_
                      case hy15 => (intro w hSw; (try dsimp only at hSw); go_simp; all_goals with_reducible rfl)
                      try simp only [Act.put, List.setIfInBounds_toArray, List.set_cons_zero, List.set_cons_succ]
                      refine wpAnyH_take (i := 4) (oi := { dst := some 87, op := Op.move (Operand.tmp 4), type := 3, pos := "ref.go:568", after := #[], guard := none }) (v := ?vv16) rfl (by kernel_rfl) (by kernel_rfl) (by kernel_rfl) (fun _ _ _ h => h) (Or.inl ⟨by rfl, ?hy16⟩) (by assumption) ?_
                      case hy16 => (intro w hSw; (try dsimp only at hSw); go_simp; all_goals with_reducible rfl)
                      try simp only [Act.put, List.setIfInBounds_toArray, List.set_cons_zero, List.set_cons_succ]
                      refine wpAnyH_take (i := 5) (oi := { dst := some 88, op := Op.indexAddr 53 (Operand.tmp 86) (Operand.tmp 87), type := 0, pos := "ref.go:568", after := #[{ on := 3, ground := Ground.data }, { on := 4, ground := Ground.data }], guard := none }) (v := ?vv17) rfl (by kernel_rfl) (by kernel_rfl) (by kernel_rfl) (fun _ _ _ h => h) (Or.inl ⟨by rfl, ?hy17⟩) (by assumption) ?_
                      case hy17 => (intro w hSw; (try dsimp only at hSw); go_simp; all_goals with_reducible rfl)
                      try simp only [Act.put, List.setIfInBounds_toArray, List.set_cons_zero, List.set_cons_succ]
                      refine wpAnyH_take (i := 6) (oi := { dst := some 89, op := Op.fieldAddr 97 (Operand.tmp 88) 0, type := 0, pos := "ref.go:568", after := #[{ on := 5, ground := Ground.data }], guard := none }) (v := ?vv18) rfl (by kernel_rfl) (by kernel_rfl) (by kernel_rfl) (fun _ _ _ h => h) (Or.inl ⟨by rfl, ?hy18⟩) (by assumption) ?_
                      case hy18 => (intro w hSw; (try dsimp only at hSw); go_simp; all_goals with_reducible rfl)
                      try simp only [Act.put, List.setIfInBounds_toArray, List.set_cons_zero, List.set_cons_succ]
                      refine wpAnyH_take (i := 7) (oi := { dst := some 90, op := Op.load 3 (Operand.tmp 89), type := 3, pos := "ref.go:568", after := #[{ on := 6, ground := Ground.data }], guard := none }) (v := ?vv19) rfl (by kernel_rfl) (by kernel_rfl) (by kernel_rfl) (fun _ _ _ h => h) (Or.inl ⟨by rfl, ?hy19⟩) (by assumption) ?_
                      case hy19 => (intro w hSw; (try dsimp only at hSw); go_simp; all_goals with_reducible rfl)
                      try simp only [Act.put, List.setIfInBounds_toArray, List.set_cons_zero, List.set_cons_succ]
                      refine wpAnyH_take (i := 11) (oi := { dst := some 94, op := Op.fieldAddr 55 (Operand.tmp 1) 10, type := 0, pos := "ref.go:568", after := #[], guard := none }) (v := ?vv20) rfl (by kernel_rfl) (by kernel_rfl) (by kernel_rfl) (fun _ _ _ h => h) (Or.inl ⟨by rfl, ?hy20⟩) (by assumption) ?_
                      case hy20 => (intro w hSw; (try dsimp only at hSw); go_simp; all_goals with_reducible rfl)
                      try simp only [Act.put, List.setIfInBounds_toArray, List.set_cons_zero, List.set_cons_succ]
                      refine wpAnyH_take (i := 12) (oi := { dst := some 95, op := Op.load 53 (Operand.tmp 94), type := 53, pos := "ref.go:568", after := #[{ on := 11, ground := Ground.data }], guard := none }) (v := ?vv21) rfl (by kernel_rfl) (by kernel_rfl) (by kernel_rfl) (fun _ _ _ h => h) (Or.inl ⟨by rfl, ?hy21⟩) (by assumption) ?_
                      case hy21 => (intro w hSw; (try dsimp only at hSw); go_simp; all_goals with_reducible rfl)
                      try simp only [Act.put, List.setIfInBounds_toArray, List.set_cons_zero, List.set_cons_succ]
                      refine wpAnyH_take (i := 13) (oi := { dst := some 96, op := Op.move (Operand.tmp 4), type := 3, pos := "ref.go:568", after := #[], guard := none }) (v := ?vv22) rfl (by kernel_rfl) (by kernel_rfl) (by kernel_rfl) (fun _ _ _ h => h) (Or.inl ⟨by rfl, ?hy22⟩) (by assumption) ?_
                      case hy22 => (intro w hSw; (try dsimp only at hSw); go_simp; all_goals with_reducible rfl)
                      try simp only [Act.put, List.setIfInBounds_toArray, List.set_cons_zero, List.set_cons_succ]
                      refine wpAnyH_take (i := 14) (oi := { dst := some 97, op := Op.indexAddr 53 (Operand.tmp 95) (Operand.tmp 96), type := 0, pos := "ref.go:568", after := #[{ on := 12, ground := Ground.data }, { on := 13, ground := Ground.data }], guard := none }) (v := ?vv23) rfl (by kernel_rfl) (by kernel_rfl) (by kernel_rfl) (fun _ _ _ h => h) (Or.inl ⟨by rfl, ?hy23⟩) (by assumption) ?_
                      case hy23 => (intro w hSw; (try dsimp only at hSw); go_simp; all_goals with_reducible rfl)
                      try simp only [Act.put, List.setIfInBounds_toArray, List.set_cons_zero, List.set_cons_succ]
                      refine wpAnyH_take (i := 15) (oi := { dst := some 98, op := Op.fieldAddr 97 (Operand.tmp 97) 1, type := 0, pos := "ref.go:568", after := #[{ on := 14, ground := Ground.data }], guard := none }) (v := ?vv24) rfl (by kernel_rfl) (by kernel_rfl) (by kernel_rfl) (fun _ _ _ h => h) (Or.inl ⟨by rfl, ?hy24⟩) (by assumption) ?_
                      case hy24 => (intro w hSw; (try dsimp only at hSw); go_simp; all_goals with_reducible rfl)
                      try simp only [Act.put, List.setIfInBounds_toArray, List.set_cons_zero, List.set_cons_succ]
                      refine wpAnyH_take (i := 16) (oi := { dst := some 99, op := Op.load 2 (Operand.tmp 98), type := 2, pos := "ref.go:568", after := #[{ on := 15, ground := Ground.data }], guard := none }) (v := ?vv25) rfl (by kernel_rfl) (by kernel_rfl) (by kernel_rfl) (fun _ _ _ h => h) (Or.inl ⟨by rfl, ?hy25⟩) (by assumption) ?_
                      case hy25 => (intro w hSw; (try dsimp only at hSw); go_simp; all_goals with_reducible rfl)
                      try simp only [Act.put, List.setIfInBounds_toArray, List.set_cons_zero, List.set_cons_succ]
                      refine wpAnyH_ready (rs := [8]) (by kernel_rfl) (by simp) ?_
                      refine AllReadyH.cons (o := { dst := some 91, op := Op.call { callee := Callee.value (Operand.func 34), args := #[Operand.tmp 90], argTypes := #[2] }, type := 9, pos := "ref.go:568", after := #[{ on := 7, ground := Ground.data }], guard := none }) rfl (fun K hK => ?_) AllReadyH.nil
                      go_simp
                      refine (decimal_i pi HPI.out.1 _).mono ?_
                      rintro e' Wx ⟨rfl, bX⟩
                      have HSWx := hid (FS.step hHeld.2.2.2 bX)
                      clear bX hHeld
                      go_wp2_with fail
                      refine hK.out _ _ (HCP.out _ HSWx.out) (fun hHeld => ?_)
                      clear hK K
                      try simp only [Act.put, List.setIfInBounds_toArray, List.set_cons_zero, List.set_cons_succ]
                      refine wpAnyH_take (i := 9) (oi := { dst := some 92, op := Op.binOp BinOp.add 9 (Operand.tmp 84) (Operand.tmp 91) 9, type := 9, pos := "ref.go:568", after := #[{ on := 1, ground := Ground.data }, { on := 8, ground := Ground.data }], guard := none }) (v := ?vv26) rfl (by kernel_rfl) (by kernel_rfl) (by kernel_rfl) (fun _ _ _ h => h) (Or.inl ⟨by rfl, ?hy26⟩) (by assumption) ?_
                      case hy26 => (intro w hSw; (try dsimp only at hSw); go_simp; all_goals with_reducible rfl)
                      try simp only [Act.put, List.setIfInBounds_toArray, List.set_cons_zero, List.set_cons_succ]
                      refine wpAnyH_take (i := 10) (oi := { dst := some 93, op := Op.binOp BinOp.add 9 (Operand.tmp 92) (Operand.const (Value.string { data := #[32] })) 9, type := 9, pos := "ref.go:568", after := #[{ on := 9, ground := Ground.data }], guard := none }) (v := ?vv27) rfl (by kernel_rfl) (by kernel_rfl) (by kernel_rfl) (fun _ _ _ h => h) (Or.inl ⟨by rfl, ?hy27⟩) (by assumption) ?_
                      case hy27 => (intro w hSw; (try dsimp only at hSw); go_simp; all_goals with_reducible rfl)
                      try simp only [Act.put, List.setIfInBounds_toArray, List.set_cons_zero, List.set_cons_succ]
                      refine wpAnyH_ready (rs := [17]) (by kernel_rfl) (by simp) ?_
                      refine AllReadyH.cons (o := { dst := some 100, op := Op.call { callee := Callee.value (Operand.func 34), args := #[Operand.tmp 99], argTypes := #[2] }, type := 9, pos := "ref.go:568", after := #[{ on := 16, ground := Ground.data }, { on := 8, ground := Ground.chain }], guard := none }) rfl (fun K hK => ?_) AllReadyH.nil
                      go_simp
                      refine (decimal_i pv HPI.out.2 _).mono ?_
                      rintro e' Wxx ⟨rfl, bX⟩
                      have HSWxx := hid (FS.step hHeld.2.2.2 bX)
                      clear bX hHeld
                      go_wp2_with fail
                      refine hK.out _ _ (HCP.out _ HSWxx.out) (fun hHeld => ?_)
                      clear hK K
                      try simp only [Act.put, List.setIfInBounds_toArray, List.set_cons_zero, List.set_cons_succ]
                      refine wpAnyH_take (i := 18) (oi := { dst := some 101, op := Op.binOp BinOp.add 9 (Operand.tmp 93) (Operand.tmp 100) 9, type := 9, pos := "ref.go:568", after := #[{ on := 10, ground := Ground.data }, { on := 17, ground := Ground.data }], guard := none }) (v := ?vv28) rfl (by kernel_rfl) (by kernel_rfl) (by kernel_rfl) (fun _ _ _ h => h) (Or.inl ⟨by rfl, ?hy28⟩) (by assumption) ?_
                      case hy28 => (intro w hSw; (try dsimp only at hSw); go_simp; all_goals with_reducible rfl)
                      try simp only [Act.put, List.setIfInBounds_toArray, List.set_cons_zero, List.set_cons_succ]
                      refine wpAnyH_take (i := 19) (oi := { dst := some 3, op := Op.assign (Operand.tmp 101), type := 9, pos := "ref.go:568", after := #[{ on := 18, ground := Ground.data }, { on := 17, ground := Ground.chain }, { on := 0, ground := Ground.phase }, { on := 1, ground := Ground.phase }, { on := 2, ground := Ground.phase }, { on := 3, ground := Ground.phase }, { on := 4, ground := Ground.phase }, { on := 5, ground := Ground.phase }, { on := 6, ground := Ground.phase }, { on := 7, ground := Ground.phase }, { on := 8, ground := Ground.phase }, { on := 9, ground := Ground.phase }, { on := 10, ground := Ground.phase }, { on := 11, ground := Ground.phase }, { on := 12, ground := Ground.phase }, { on := 13, ground := Ground.phase }, { on := 14, ground := Ground.phase }, { on := 15, ground := Ground.phase }, { on := 16, ground := Ground.phase }, { on := 17, ground := Ground.phase }, { on := 18, ground := Ground.phase }], guard := none }) (v := ?vv29) rfl (by kernel_rfl) (by kernel_rfl) (by kernel_rfl) (fun _ _ _ h => h) (Or.inl ⟨by rfl, ?hy29⟩) (by assumption) ?_
                      case hy29 => (intro w hSw; (try dsimp only at hSw); go_simp; all_goals with_reducible rfl)
                      try simp only [Act.put, List.setIfInBounds_toArray, List.set_cons_zero, List.set_cons_succ]
                      refine wpAnyH_done (by kernel_rfl) ?_ _
                      go_wp2_with fail
                      go_roundw
                      case rel => exact ⟨k + 1, X2, by rw [← HXA.out], rfl, by omega, HX2.out.1, hid ⟨HX2.out.2, hHeld.2.2.2⟩⟩
                      case measure => show pn - ((k : Int) + 1).toNat < pn - ((k : Nat) : Int).toNat; omega
                    · have hnl : ¬ (k : Int) < (pn : Int) := by omega
                      have hkp : k = pn := by omega
                      have HE : Hid (X = bt (frT F)) := hid (by
                        have := HJ.out.1
                        rw [List.take_of_length_le (by have := HPS.out; omega), HFR.out] at this
                        exact this)
                      go_wp2_with fail
                      go_ret
                      exact ⟨by rw [HE.out]; rfl, HJ.out.2.bel⟩
end Go.Proofs.YtghppkfopglgaaaGreatDoor
namespace Go.Proofs.YtghppkfopglgaaaGreatDoor
open Go.RowKit
set_option linter.unusedVariables false
set_option linter.unusedSimpArgs false
def hdT1 : List UInt8 := [115, 101, 114, 118, 101, 114, 32, 51, 10, 97, 110, 115, 119, 101, 114, 115]
def hdT2 : List UInt8 := [115, 101, 114, 118, 101, 114, 32, 48, 51]
def hdC1 : Cm := { Cm.of 2 with m := { Mv.z with k := 3, n := 3 } }
def hdC2 : Cm := Cm.of 4
def hdC : Cm := { Cm.of 2 with m := { Mv.z with k := 10, by' := ⟨#[97, 65, 92, 34]⟩ } }
theorem two_lines (x y : List UInt8) (hx : ∀ c ∈ x, c ≠ 10) (hy : ∀ c ∈ y, c ≠ 10) (hne : y ≠ []) (sx : silB x = false) (sy : silB y = false) (a b : List Wd) (ha : wol x = some a) (hb : wol y = some b) (lx : x.length ≤ 4096) (ly : y.length ≤ 4096) :
    wds (x ++ 10 :: y) = a ++ [eW] ++ (b ++ [eW]) ∧ longB (x ++ 10 :: y) = false := by
  have e : lns (x ++ 10 :: y) = [x ++ [10], y] := by rw [lns_line x y hx, lns_one y hy hne]
  constructor
  · unfold wds
    rw [e]
    simp only [List.map_cons, List.map_nil, List.flatMap_cons, List.flatMap_nil, List.append_nil, trimN_ln, trimN_no y hy]
    rw [sx, sy, if_neg (by simp), if_neg (by simp), ha, hb]
    rfl
  · unfold longB
    rw [e]
    simp only [List.any_cons, List.any_nil, trimN_ln, trimN_no y hy, List.length_append, List.length_cons, List.length_nil, Bool.or_false, Bool.or_eq_false_iff, decide_eq_false_iff_not]
    exact ⟨⟨by omega, by omega, by omega⟩, by simp⟩
theorem cm_ok_z (k mk n : Int) (b : ByteArray) (cn : Int) (sv : Bool) (hn : I64 n) (hc : I64 cn) : CmOk ⟨k, Wo.z, ⟨mk, n, Rq.z, Pg.z, Si.z, b⟩, cn, sv⟩ := by
  have z : I64 0 := by unfold I64; omega
  exact ⟨⟨⟨z, z, z, z, z, z⟩, ⟨z, z, z, z, z, z⟩, z, z, z, z, fun p h => absurd h (by simp [Wo.z])⟩, ⟨hn, z, ⟨z, z, z, z, z, z⟩⟩, hc⟩
theorem hd_wol1 : wol [115, 101, 114, 118, 101, 114, 32, 51] = some [bW (mvB 3), nW 3] := by
  have := wol_ltx [bW (mvB 3), nW 3] (by simp) (gd_cons (gd_tab.2 ⟨3, by decide⟩ (by decide)) (gd_cons (nW_gd 3) gd_nil))
  rwa [show ltx [bW (mvB 3), nW 3] = [115, 101, 114, 118, 101, 114, 32, 51] by decide +kernel] at this
theorem hd_wol2 : wol [97, 110, 115, 119, 101, 114, 115] = some [bW (kdB 4)] := by
  have := wol_ltx [bW (kdB 4)] (by simp) (gd_cons (gd_tab.1 ⟨4, by decide⟩ (.inr (by decide))) gd_nil)
  rwa [show ltx [bW (kdB 4)] = [97, 110, 115, 119, 101, 114, 115] by decide +kernel] at this
theorem hd_p1 : parseL hdT1 = ([hdC1, hdC2], 0) ∧ wds hdT1 = [bW (mvB 3), nW 3, eW, bW (kdB 4), eW] := by
  have h := two_lines [115, 101, 114, 118, 101, 114, 32, 51] [97, 110, 115, 119, 101, 114, 115] (by decide) (by decide) (by simp) rfl rfl _ _ hd_wol1 hd_wol2 (by simp) (by simp)
  have e : hdT1 = [115, 101, 114, 118, 101, 114, 32, 51] ++ 10 :: [97, 110, 115, 119, 101, 114, 115] := rfl
  have hw : wds hdT1 = [bW (mvB 3), nW 3, eW, bW (kdB 4), eW] := by rw [e, h.1]; rfl
  refine ⟨?_, hw⟩
  unfold parseL
  rw [hw, e, h.2, if_neg (by simp)]
  have hc := cms_hit [hdC1, hdC2] (by
    intro c hc
    simp only [List.mem_cons, List.not_mem_nil, or_false] at hc
    rcases hc with rfl | rfl
    · exact ⟨cm_ok_z 2 3 3 noS 0 false (by unfold I64; omega) (by unfold I64; omega), by decide, by decide, fun _ => ⟨by decide, by decide⟩⟩
    · exact ⟨cm_ok_z 4 0 0 noS 0 false (by unfold I64; omega) (by unfold I64; omega), by decide, by decide, fun h => absurd h (by decide)⟩)
  rw [show flW ([hdC1, hdC2].flatMap cmW) = [bW (mvB 3), nW 3, eW, bW (kdB 4), eW] from rfl] at hc
  rw [hc, if_pos rfl]
  rfl
theorem hd_p2 : parseL hdT2 = ([], 260) ∧ wds hdT2 = [bW (mvB 3), bW ⟨#[48, 51]⟩, eW] := by
  have hg : GdW (bW ⟨#[48, 51]⟩) := .inr ⟨rfl, by decide, by decide⟩
  have hw := wol_ltx [bW (mvB 3), bW ⟨#[48, 51]⟩] (by simp) (gd_cons (gd_tab.2 ⟨3, by decide⟩ (by decide)) (gd_cons hg gd_nil))
  rw [show ltx [bW (mvB 3), bW ⟨#[48, 51]⟩] = hdT2 by decide +kernel] at hw
  have h2 : wds hdT2 = [bW (mvB 3), bW ⟨#[48, 51]⟩, eW] := by rw [wds_line hdT2 (by decide) rfl, hw]; rfl
  refine ⟨?_, h2⟩
  rw [parse_line hdT2 (by decide) (by decide) rfl _ hw]
  have : (cmsL (bW (mvB 3) :: [bW ⟨#[48, 51]⟩, eW])).2 = false := by
    refine cms_no _ _ ?_
    have hx : Rd.nx ⟨bW (mvB 3) :: [bW ⟨#[48, 51]⟩, eW], false⟩ 0 = (mvB 3, ⟨[bW ⟨#[48, 51]⟩, eW], false⟩) := nx_hit 0 _ _ _
    have t := name_tab.2.2.2.2.1 ⟨3, by decide⟩ (by decide)
    rw [cm_0 _ _ _ hx t.1]
    show (Rd.mv _ _).2.el = _
    rw [mv_n _ _ 3 t.2 (by decide) (by decide) (by decide) (by decide) (by decide)]
    show (Rd.nu ⟨[bW ⟨#[48, 51]⟩, eW], false⟩).2.el = Rd.no
    unfold Rd.nu
    rw [show Rd.nx ⟨[bW ⟨#[48, 51]⟩, eW], false⟩ 0 = (⟨#[48, 51]⟩, ⟨[eW], false⟩) from nx_hit 0 _ _ _]
    simp only
    rw [num_zero [51] (by simp), if_neg (by simp), no_el]
  rw [show [bW (mvB 3), bW ⟨#[48, 51]⟩] ++ [eW] = bW (mvB 3) :: [bW ⟨#[48, 51]⟩, eW] from rfl, this, if_neg (by simp)]
theorem hd_now : NoW (wds hdT1) ∧ NoW (wds hdT2) := by
  rw [hd_p1.2, hd_p2.2]
  have t3 := (name_tab.2.2.2.2.1 ⟨3, by decide⟩ (by decide)).1
  have t4 := name_tab.2.2.2.1 ⟨4, by decide⟩ (by decide)
  have n3 : kindOf (nW 3).t = 0 := by decide +kernel
  have n03 : kindOf ⟨#[48, 51]⟩ = 0 := by decide +kernel
  constructor
  · intro x hx hk
    simp only [List.mem_cons, List.not_mem_nil, or_false] at hx
    rcases hx with rfl | rfl | rfl | rfl | rfl
    · show kindOf (mvB 3) ≠ 1; simp only at t3; rw [t3]; decide
    · rw [n3]; decide
    · cases hk
    · show kindOf (kdB 4) ≠ 1; simp only at t4; rw [t4]; decide
    · cases hk
  · intro x hx hk
    simp only [List.mem_cons, List.not_mem_nil, or_false] at hx
    rcases hx with rfl | rfl | rfl
    · show kindOf (mvB 3) ≠ 1; simp only at t3; rw [t3]; decide
    · show kindOf ⟨#[48, 51]⟩ ≠ 1; rw [n03]; decide
    · cases hk
theorem hd_pr : printL [hdC] = ([102, 111, 114, 103, 101, 32, 48, 32, 34, 97, 65, 92, 92, 92, 34, 34, 10], 0) := by
  have h : prT [hdC] = [102, 111, 114, 103, 101, 32, 48, 32, 34, 97, 65, 92, 92, 92, 34, 34, 10] := by decide +kernel
  unfold printL
  rw [show [hdC].any noneB = false by decide +kernel, if_neg (by simp), h, if_neg (by decide +kernel)]
theorem hd_ok : CmOk hdC := cm_ok_z 2 10 0 ⟨#[97, 65, 92, 34]⟩ 0 false (by unfold I64; omega) (by unfold I64; omega)
def hdF6 : Fm := ⟨6, 0, 0, ⟨#[]⟩, 0, 0, false, 0, 0, 0, []⟩
theorem hd_fr : frT hdF6 = [54, 32, 48, 32, 48] := by decide +kernel
theorem hd_fok : hdF6.Ok := by
  have z : I64 0 := by unfold I64; omega
  exact ⟨by unfold I64; decide, z, z, z, z, z, z, z, fun p h => absurd h (by simp [hdF6])⟩
end Go.Proofs.YtghppkfopglgaaaGreatDoor
namespace Go.Proofs.YtghppkfopglgaaaGreatDoor
open Go.RowKit
set_option linter.unusedVariables false
set_option linter.unusedSimpArgs false
theorem proK {g : Nat} {c : Cm} {s : CmS} {w : World} (h1 : c.k ≠ 1) (h2 : c.k = 2 → c.m.k ≠ 1 ∧ c.m.k ≠ 8) : PrOk g c s w :=
  ⟨fun a b => absurd b (h2 a).1, fun a b => absurd b (h2 a).2, fun a => absurd a h1⟩
theorem wpList_build_to {P : Program} {ops : Array Oper} {rest : List Oper} {o : Oper} {a : Act} {w : World} {Q : Exit → Act → World → Prop} (hg : o.guard = none) (t : TypeId) (parts : Array (Nat × Operand)) (ho : o.op = .build t parts) (cells : Array Value)
    (hf : P.built t (parts.map fun (i, x) => (i, a.eval x)).toList = some cells)
    (h : wpList P ops Q rest (a.put o.dst (.agg cells)) w) : wpList P ops Q (o :: rest) a w :=
  wpList_build hg t parts ho (by rw [hf]; rfl) (by rw [hf]; exact h)
theorem map_two {cs : List (Cm × CmS)} {a b : Cm} (h : cs.map (·.1) = [a, b]) : ∃ s t, cs = [(a, s), (b, t)] := by
  rcases cs with _ | ⟨⟨x, s⟩, _ | ⟨⟨y, t⟩, _ | ⟨z, r⟩⟩⟩
  · cases h
  · simp at h
  · simp only [List.map_cons, List.map_nil, List.cons.injEq, and_true] at h
    obtain ⟨rfl, rfl⟩ := h
    exact ⟨s, t, rfl⟩
  · simp at h
def mvHd : Array Value := mvA hdC.m (.slice none 0 0) (.slice none 0 0)
/-- two commands, as cells -/
theorem row_cells {W : World} {v : Value} {cs : List (Cm × CmS)} (h : R ECm W v cs) (hne : cs ≠ []) : ∃ bk cap, v = .slice (some ⟨bk, 0, none⟩) cs.length cap ∧ bk < W.heap.size ∧ ∀ i x, cs[i]? = some x → ∀ j u, (cmA x.1 x.2)[j]? = some u → W.cell? ⟨bk, i * 42 + j, none⟩ = some u := by
  rcases h.2 with ⟨rfl, hn⟩ | ⟨g, cap, cur, rfl, hbs, hgg, hn, hm, hc, hz⟩
  · exact absurd (List.eq_nil_of_length_eq_zero hn) hne
  · refine ⟨g, cap, rfl, heap_lt hgg, fun i x hi j u hu => ?_⟩
    have hcu := cur_at (cur := cur) (cs := cs) hz hi
    rw [cell_blk hgg, ← Array.getElem?_toList]
    have h1 : (cmA x.1 x.2).toList[j]? = some u := by rw [Array.getElem?_toList]; exact hu
    rw [← hcu, List.getElem?_take] at h1
    split at h1
    · rw [List.getElem?_drop] at h1; exact h1
    · cases h1
set_option maxRecDepth 100000 in
set_option maxHeartbeats 8000000 in
theorem head_any (w : World) (hE : Env w) : Calls Tryz.prog 9 #[] w fun e w' => e = .returned (.bool true) ∧ Below w.heap.size w w' := by
  have HP1 := hid (fun V (hV : Env V) => Parse_any ⟨hdT1.toArray⟩ (by decide) V hV (.inr (show NoW (wds hdT1) from hd_now.1)))
  have HP2 := hid (fun V (hV : Env V) => Parse_any ⟨hdT2.toArray⟩ (by decide) V hV (.inr (show NoW (wds hdT2) from hd_now.2)))
  simp only [show (⟨hdT1.toArray⟩ : ByteArray).data.toList = hdT1 from rfl, hd_p1.1] at HP1
  simp only [show (⟨hdT2.toArray⟩ : ByteArray).data.toList = hdT2 from rfl, hd_p2.1] at HP2
  have HPR := hid (fun (V : World) (hV : Env V) (bk : Nat) (hb : V.heap[bk]? = some (.cells (cmA hdC CmS.z) 47 (0, 0))) => Print_any (.slice (some ⟨bk, 0, none⟩) 1 1) [(hdC, CmS.z)] V hV (.inr ⟨bk, 1, _, rfl, by decide, by decide, hb, rfl⟩) (by simp) (by
    intro x hx
    rw [List.mem_singleton] at hx
    subst hx
    exact ⟨hd_ok, by decide⟩) (by
    intro x hx
    rw [List.mem_singleton] at hx
    subst hx
    intro _ _ _ _
    exact proK (by decide) (fun _ => ⟨by decide, by decide⟩)))
  simp only [List.map_cons, List.map_nil, hd_pr, show bt [102, 111, 114, 103, 101, 32, 48, 32, 34, 97, 65, 92, 92, 92, 34, 34, 10] = (⟨#[102, 111, 114, 103, 101, 32, 48, 32, 34, 97, 65, 92, 92, 92, 34, 34, 10]⟩ : ByteArray) from rfl] at HPR
  have HQ := hid (fun V => quote_any ⟨#[0]⟩ V (by decide))
  have HF := hid (fun V (hV : Env V) => frame0_any hdF6 rfl hd_fok (by decide) (by decide) (by rw [hd_fr]; decide) (.slice none 0 0) V hV (.inl ⟨⟨_, _, rfl⟩, rfl⟩))
  rw [hd_fr, show bt [54, 32, 48, 32, 48] = (⟨#[54, 32, 48, 32, 48]⟩ : ByteArray) from rfl] at HF
  rw [show bt (qtS (⟨#[0]⟩ : ByteArray).data.toList) = ⟨#[34, 92, 120, 48, 48, 34]⟩ by decide +kernel] at HQ
  have HE := hid hE
  have HEV : Hid (∀ V, Below w.heap.size w V → Env V) := hid (fun V h => hE.of h.size fun k hk => h.block k (by have := hE.sz; omega))
  clear hE
  go_enter Tryz.func9, Tryz.ntmps9
  go_wp2_with fail
  go_at_call 11
  refine (HP1.out w HE.out).mono ?_
  rintro e V1 ⟨v1, rfl, cs1, hm1, hR1, hO1, hN1, hb1⟩
  have B1 := hid hb1
  obtain ⟨s1, s2, rfl⟩ := map_two hm1
  clear hm1
  obtain ⟨bk, cap, rfl, hbk, hcell⟩ := row_cells hR1 (by simp)
  have f0 := hcell 0 (hdC1, s1) rfl 0 (.int .i64 2) rfl
  have f20 := hcell 0 (hdC1, s1) rfl 20 (.int .i64 3) rfl
  have f21 := hcell 0 (hdC1, s1) rfl 21 (.int .i64 3) rfl
  have f42 := hcell 1 (hdC2, s2) rfl 0 (.int .i64 4) rfl
  simp only [Nat.zero_mul, Nat.zero_add, Nat.one_mul, Nat.add_zero] at f0 f20 f21 f42
  have HCL : Hid (∀ V, Below V1.heap.size V1 V → V.cell? ⟨bk, 0, none⟩ = some (.int .i64 2) ∧ V.cell? ⟨bk, 20, none⟩ = some (.int .i64 3) ∧ V.cell? ⟨bk, 21, none⟩ = some (.int .i64 3) ∧ V.cell? ⟨bk, 42, none⟩ = some (.int .i64 4) ∧ bk < V.heap.size) := hid (fun V hV => by
    have hh : ∀ i, V.cell? ⟨bk, i, none⟩ = V1.cell? ⟨bk, i, none⟩ := fun i => by unfold World.cell?; simp only; rw [hV.block bk hbk]
    exact ⟨(hh 0).trans f0, (hh 20).trans f20, (hh 21).trans f21, (hh 42).trans f42, Nat.lt_of_lt_of_le hbk hV.size⟩)
  obtain ⟨V2, hV2⟩ : ∃ V2, V1.alloc (.cells (cmA hdC CmS.z) 47) = V2 := ⟨_, rfl⟩
  have bV2 : Below V1.heap.size V1 V2 := by rw [← hV2]; exact bel1 _ _
  have hq2 : V2.heap[V1.heap.size]? = some (.cells (cmA hdC CmS.z) 47 (0, 0)) := by rw [← hV2, heap_al, if_pos rfl]
  have HPR2 := hid (HPR.out V2 (HEV.out _ (hb1.trans (bV2.mono hb1.size))) V1.heap.size hq2)
  have HV2 := hid hV2
  have HB2 := hid bV2
  clear f0 f20 f21 f42 hcell hR1 hO1 hN1 hb1 hV2 bV2 hq2 HP1 HPR
  go_wp2_with (first | (refine wpList_build_to rfl 38 _ rfl mvHd (by kernel_rfl) ?_) | (refine wpList_build_to rfl 47 _ rfl (cmA hdC CmS.z) (by kernel_rfl) ?_) | (refine wpList_build_one rfl 25 47 (.tmp 13) rfl (cmA hdC CmS.z) rfl Tryz.underlying25 (by kernel_rfl) (by decide) (Nat.le_of_ble_eq_true rfl) ?_; rw [HV2.out]))
  go_at_call 12
  refine HPR2.out.mono ?_
  rintro e V3 ⟨rfl, hb3⟩
  have HB3 := hid (HB2.out.trans (hb3.mono HB2.out.size))
  clear hb3 HPR2
  go_wp2_with fail
  go_at_call 11
  refine (HP2.out V3 (HEV.out _ (B1.out.trans (HB3.out.mono B1.out.size)))).mono ?_
  rintro e V4 ⟨v4, rfl, cs4, hm4, hR4, hO4, hN4, hb4⟩
  have HB4 := hid (HB3.out.trans (hb4.mono HB3.out.size))
  obtain ⟨a4, n4, c4, rfl⟩ : ∃ a n c, v4 = .slice a n c := by
    obtain ⟨a, c, e, _⟩ := hR4.slice
    exact ⟨a, _, c, e⟩
  obtain ⟨d0, d20, d21, d42, hbk4⟩ := HCL.out V4 HB4.out
  clear hb4 hR4 hO4 hN4 hm4 HP2
  go_wp2_with fail
  go_at_call 10
  refine (HQ.out V4).mono ?_
  rintro e V5 ⟨rfl, hb5⟩
  have HB5 := hid (HB4.out.trans (hb5.mono HB4.out.size))
  clear hb5
  go_wp2_with (refine wpList_build_to rfl 55 _ rfl (fmA hdF6 (.slice none 0 0)) (by kernel_rfl) ?_)
  go_at_call 13
  refine (HF.out V5 (HEV.out _ (B1.out.trans (HB5.out.mono B1.out.size)))).mono ?_
  rintro e V6 ⟨rfl, hb6⟩
  have HB6 := hid (HB5.out.trans (hb6.mono HB5.out.size))
  clear hb6
  go_wp2_with fail
  go_ret
  exact ⟨rfl, B1.out.trans (HB6.out.mono B1.out.size)⟩
end Go.Proofs.YtghppkfopglgaaaGreatDoor
