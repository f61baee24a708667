/- The document's Write. -/
import Derived.Test.YtjigjckclpccmaaDoorX9
import Derived.Test.YtjigjckclpccmaaDoorW1
namespace Go.Proofs.YtjigjckclpccmaaDoor
open Go.RowKit
set_option linter.unusedVariables false
set_option linter.unusedSimpArgs false

theorem Bx.gr {w W W' : World} {g : Nat} {cs : Array Value} {o o' : Value} (h : Bx w g cs W) (hG : Gr W W' o o') (ho : ∀ k, o.ownBlock = some k → g < k ∧ w.heap.size ≤ k) : Bx w g cs W' :=
  ⟨(hG.block g (Array.getElem?_eq_some_iff.1 h.blk).1 fun e => by have := (ho g e).1; omega).trans h.blk, h.bel.trans (hG.belowB h.bel.size fun k hk => (ho k hk).2)⟩

set_option maxRecDepth 100000 in
set_option maxHeartbeats 8000000 in
theorem rwrite_any (f : Fr) (p : Value) (ps : List (Int × Int)) (w : World) (hp : PIn w p ps) (hl : 6 * ps.length + f.data.size + 600 ≤ 140737488355328) :
    Calls Tryd.prog 21 #[.agg (fv f p)] w fun e w' => ∃ v, e = .returned v ∧ writeV f ps v ∧ Below w.heap.size w w' := by
  have hiff := right_iff f ps
  have c33 : Hid (∀ W, Below w.heap.size w W → Calls Tryd.prog 33 #[.agg (fv f p)] W fun e w' => e = .returned (.bool (rtB f ps)) ∧ Below W.heap.size W w') := fun W hb => right_any f p ps W (hp.below hb) (by omega)
  have c34 : Hid (Right f ps → ∀ W, Below w.heap.size w W → Calls Tryd.prog 34 #[.agg (fv f p)] W fun e w' => ∃ o, e = .returned o ∧ Row w' o (wholeB f ps) ∧ (∀ k, o.ownBlock = some k → W.heap.size ≤ k) ∧ Below W.heap.size W w') := fun hr W hb => by
    have t0 := hr.ty0
    have x0 := hr.fl0
    have x1 := hr.fl1
    have hpd := hr.pad
    have hbd := hr.body
    have hpe := (pad_eq f ps hr).2.1
    have h := payload_any f p ps f.ty.toNat f.fl.toNat W (by omega) (by omega) (by omega) (hp.below hb) (fun hw => by
      unfold BodyR at hbd
      unfold wgS at hw
      rw [Int.toNat_of_nonneg x0, Bool.or_eq_true, Bool.and_eq_true, decide_eq_true_iff, decide_eq_true_iff] at hw
      have hk : (kd f.ty f.fl).2.2.2 = 51 ∨ (kd f.ty f.fl).2.2.2 = 54 := by
        unfold kd
        rcases hw with hw | ⟨hw, h32⟩
        · rw [if_neg (by omega), if_pos (by omega)]
          exact .inr rfl
        · rw [if_pos ⟨by omega, h32⟩]
          exact .inl rfl
      rw [if_pos hk] at hbd
      exact hbd.1) (by split at hpd <;> omega) (by split at hpd <;> omega) hl
    rw [whole_eq f ps hr] at h
    exact h
  have hdl : Hid (Right f ps → f.data.size ≤ (wholeB f ps).length) := fun hr => by
    rw [← whole_eq f ps hr]
    unfold pyL
    simp only [List.length_append]
    have : f.data.data.toList.length = f.data.size := by simp
    omega
  have hwl : Hid (Right f ps → (wholeB f ps).length ≤ 6 * ps.length + f.data.size + 300) := fun hr => by
    have hpd := hr.pad
    rw [← whole_eq f ps hr]
    unfold pyL pyA pyB prioB
    simp only [List.length_append, parB_length, List.length_replicate]
    have : f.data.data.toList.length = f.data.size := by simp
    have e1 : (if mpS f.ty.toNat f.fl.toNat = true then [b8 f.pad] else []).length ≤ 1 := by split <;> simp
    have e2 : (if wgS f.ty.toNat f.fl.toNat = true then be 4 (depS f) ++ [b8 (f.wt - 1)] else []).length ≤ 5 := by split <;> simp [be_length]
    have e3 : (if f.ty = 5 ∨ f.ty = 7 ∨ f.ty = 8 then be 4 f.last else []).length ≤ 4 := by split <;> simp [be_length]
    have e4 : (if f.ty = 3 ∨ f.ty = 7 then be 4 f.code else []).length ≤ 4 := by split <;> simp [be_length]
    have e5 : f.pad.toNat ≤ 255 := by split at hpd <;> omega
    omega
  have hasz := asmB_size f ps
  have hasm : Hid (Right f ps → (⟨(be 3 ((wholeB f ps).length : Int) ++ [b8 f.ty, b8 f.fl] ++ be 4 f.st ++ wholeB f ps).toArray⟩ : ByteArray) = asmB f ps) := fun hr => by
    have hk := kto_le (kiF f)
    have h1 := hr.st0
    have h2 := hr.st1
    unfold asmB headS
    rw [show f.st % 2147483648 = f.st by omega]
  have hrng : Hid (Right f ps → (0 ≤ f.ty ∧ f.ty < 256) ∧ 0 ≤ f.fl ∧ f.fl < 256) := fun hr => ⟨⟨hr.ty0, hr.ty1⟩, hr.fl0, hr.fl1⟩
  obtain ⟨R, hR⟩ : ∃ R, rtB f ps = R := ⟨_, rfl⟩
  rw [hR] at c33 hiff
  obtain ⟨wl, hwle⟩ : ∃ wl, wholeB f ps = wl := ⟨_, rfl⟩
  rw [hwle] at c34 hdl hwl hasz hasm
  obtain ⟨V, hV⟩ : ∃ V : Value → Prop, V = writeV f ps := ⟨_, rfl⟩
  have v1 : Hid (Right f ps → (asmB f ps).size ≤ 65545 → V (.tuple #[.string (asmB f ps), .int .i64 0])) := fun h1 h2 => by
    rw [hV]
    exact ⟨fun _ _ => rfl, fun _ h => by omega, fun h => absurd h1 h⟩
  have v2 : Hid (Right f ps → 65545 < (asmB f ps).size → V (.tuple #[.string ⟨#[]⟩, .int .i64 3])) := fun h1 h2 => by
    rw [hV]
    exact ⟨fun _ h => by omega, fun _ _ => rfl, fun h => absurd h1 h⟩
  have v3 : Hid (¬ Right f ps → V (.tuple #[.string ⟨#[]⟩, .int .i64 60])) := fun h1 => by
    rw [hV]
    exact ⟨fun h => absurd h h1, fun h => absurd h h1, fun _ => rfl⟩
  rw [← hV]
  obtain ⟨RT, hRT⟩ : ∃ P : Prop, P = Right f ps := ⟨_, rfl⟩
  rw [← hRT] at hiff c34 hdl hwl hasm hrng v1 v2 v3
  obtain ⟨A, hA⟩ : ∃ A, asmB f ps = A := ⟨_, rfl⟩
  rw [hA] at hasz hasm v1 v2
  obtain ⟨pb, pc, rfl⟩ := hp.sl
  obtain ⟨n, hn⟩ : ∃ n, ps.length = n := ⟨_, rfl⟩
  rw [hn] at c33 c34 hl hwl ⊢
  clear hR hwle hV hRT hA hp hn
  obtain ⟨ty, fl, st, data, pad, dep, excl, wt, code, last⟩ := f
  unfold fv at *
  simp only at *
  obtain ⟨g, hg⟩ : ∃ g, w.heap.size = g := ⟨_, rfl⟩
  have H0 : Bx w g #[.int .i64 ty, .int .i64 fl, .int .i64 st, .string data, .int .i64 pad, .int .i64 dep, .bool excl, .int .i64 wt, .int .i64 code, .int .i64 last, .slice pb n pc] (w.alloc (.cells #[.int .i64 ty, .int .i64 fl, .int .i64 st, .string data, .int .i64 pad, .int .i64 dep, .bool excl, .int .i64 wt, .int .i64 code, .int .i64 last, .slice pb n pc] 28)) := ⟨by rw [← hg]; exact heap_alloc_new _ _, (Below.refl _ w).alloc (Nat.le_refl _) _⟩
  have hcl : Hid (∀ W, Bx w g #[.int .i64 ty, .int .i64 fl, .int .i64 st, .string data, .int .i64 pad, .int .i64 dep, .bool excl, .int .i64 wt, .int .i64 code, .int .i64 last, .slice pb n pc] W → W.cell? ⟨g, 0, none⟩ = some (.int .i64 ty) ∧ W.cell? ⟨g, 1, none⟩ = some (.int .i64 fl) ∧ W.cell? ⟨g, 2, none⟩ = some (.int .i64 st) ∧ W.cell? ⟨g, 3, none⟩ = some (.string data) ∧ W.cell? ⟨g, 4, none⟩ = some (.int .i64 pad) ∧ W.cell? ⟨g, 5, none⟩ = some (.int .i64 dep) ∧ W.cell? ⟨g, 6, none⟩ = some (.bool excl) ∧ W.cell? ⟨g, 7, none⟩ = some (.int .i64 wt) ∧ W.cell? ⟨g, 8, none⟩ = some (.int .i64 code) ∧ W.cell? ⟨g, 9, none⟩ = some (.int .i64 last) ∧ W.cell? ⟨g, 10, none⟩ = some (.slice pb n pc)) := fun W h => ⟨cell_of_row _ _ _ _ _ _ h.blk, cell_of_row _ _ _ _ _ _ h.blk, cell_of_row _ _ _ _ _ _ h.blk, cell_of_row _ _ _ _ _ _ h.blk, cell_of_row _ _ _ _ _ _ h.blk, cell_of_row _ _ _ _ _ _ h.blk, cell_of_row _ _ _ _ _ _ h.blk, cell_of_row _ _ _ _ _ _ h.blk, cell_of_row _ _ _ _ _ _ h.blk, cell_of_row _ _ _ _ _ _ h.blk, cell_of_row _ _ _ _ _ _ h.blk⟩
  have HG : Hid _ := hg
  clear hg
  go_enter Tryd.func21, Tryd.ntmps21
  go_wp2_with fail
  refine (c33.out _ H0.bel).mono ?_
  rintro e W1 ⟨rfl, hb1⟩
  have H1 : Hid _ := H0.below hb1
  rw [HG.out]
  clear H0 hb1
  obtain ⟨c0, c1, c2, c3, c4, c5, c6, c7, c8, c9, c10⟩ := hcl.out _ H1.out
  cases R
  · have hn : ¬ RT := fun h => by have := hiff.2 h; cases this
    have hv := v3.out hn
    clear hiff hasz hdl hwl hrng v1 v2 v3 hn
    go_wp2
    refine bodyPost_ret (results_tmp2 rfl _ _ _) rfl ?_
    exact ⟨_, rfl, hv, H1.out.bel⟩
  · have hr : Hid RT := hiff.1 rfl
    obtain ⟨⟨ht0, ht1⟩, hf0, hf1⟩ := hrng.out hr.out
    have hd1 := hdl.out hr.out
    have hw1 := hwl.out hr.out
    have V2a : Hid (65536 < data.size → V (.tuple #[.string ⟨#[]⟩, .int .i64 3])) := fun h => v2.out hr.out (by omega)
    have V2b : Hid (65536 < wl.length → V (.tuple #[.string ⟨#[]⟩, .int .i64 3])) := fun h => v2.out hr.out (by omega)
    have V1 : Hid (¬ 65536 < wl.length → V (.tuple #[.string A, .int .i64 0])) := fun h => v1.out hr.out (by omega)
    have hwl2 : Hid (wl.length + 300 ≤ 140737488355328) := (by omega : wl.length + 300 ≤ 140737488355328)
    clear hiff hasz hd1 hw1 hdl hwl hrng v1 v2 v3 hl
    by_cases hbig : 65536 < data.size
    · have hbi : (65536 : Int) < (data.size : Int) := by omega
      have hv := V2a.out hbig
      go_wp2
      refine bodyPost_ret (results_tmp2 rfl _ _ _) rfl ?_
      exact ⟨_, rfl, hv, H1.out.bel⟩
    · have hbi : ¬ (65536 : Int) < (data.size : Int) := by omega
      go_wp2_with fail
      refine (c34.out hr.out _ H1.out.bel).mono ?_
      rintro e W2 ⟨o, rfl, hRo, hno, hb2⟩
      have H2 : Hid _ := H1.out.below hb2
      have hg1 : g < W1.heap.size := (Array.getElem?_eq_some_iff.1 H1.out.blk).1
      have hw1s := H1.out.bel.size
      obtain ⟨ob, oc, rfl⟩ := hRo.slice
      clear c0 c1 c2 c3 c4 c5 c6 c7 c8 c9 c10 hb2
      obtain ⟨c0, c1, c2, c3, c4, c5, c6, c7, c8, c9, c10⟩ := hcl.out _ H2.out
      by_cases hbig2 : 65536 < wl.length
      · have hbi2 : (65536 : Int) < (wl.length : Int) := by omega
        have hv := V2b.out hbig2
        go_wp2
        refine bodyPost_ret (results_tmp2 rfl _ _ _) rfl ?_
        exact ⟨_, rfl, hv, H2.out.bel⟩
      · have hbi2 : ¬ (65536 : Int) < (wl.length : Int) := by omega
        have hv := V1.out hbig2
        have hb2s : W1.heap.size ≤ W2.heap.size ∨ True := .inr trivial
        go_wp2_with fail
        refine (rput3 W2 _ [] (wl.length : Int) (Row.nil _) (by simp)).mono ?_
        rintro e W3 ⟨o2, rfl, hR2, hG2⟩
        have hn2 := hG2.new
        have hg2 : g < W2.heap.size := (Array.getElem?_eq_some_iff.1 H2.out.blk).1
        have hs2 := H2.out.bel.size
        have H3 := H2.out.below hG2.fresh
        have hRo3 := hRo.below hG2.fresh
        clear c0 c1 c2 c3 c4 c5 c6 c7 c8 c9 c10
        obtain ⟨c0, c1, c2, c3, c4, c5, c6, c7, c8, c9, c10⟩ := hcl.out _ H3
        obtain ⟨o3, W4, hrun, hR3, hG3⟩ := put_two hR2 (b8 ty) (b8 fl) (by simp [be_length])
        rw [show ((b8 ty).toNat : Int) = ty from (u8_int _).trans (by omega), show ((b8 fl).toNat : Int) = fl from (u8_int _).trans (by omega)] at hrun
        have hn3 : ∀ k, o3.ownBlock = some k → W2.heap.size ≤ k := fun k hk => (hG3.own k hk).elim (hn2 k) fun hh => Nat.le_trans hG2.size hh
        have H4 := H3.gr hG3 fun k hk => by have := hn2 k hk; omega
        have hRo4 : Row W4 _ wl := hRo3.other hG3 fun k hk e => by have := hn2 k e; have := hRo.lt k hk; omega
        go_wp2_with (at_builtin; refine Lib.wpList_append_run _ rfl (.tmp 21) (.tmp 28) 56 56 rfl _ _ rfl rfl _ _ hrun ?_; clear hrun c0 c1 c2 c3 c4 c5 c6 c7 c8 c9 c10; obtain ⟨c0, c1, c2, c3, c4, c5, c6, c7, c8, c9, c10⟩ := hcl.out _ H4)
        refine (rput4 W4 o3 _ st hR3 (by simp [be_length])).mono ?_
        rintro e W5 ⟨o4, rfl, hR4, hG4⟩
        have H5 := H4.gr hG4 fun k hk => by have := hn3 k hk; omega
        have hRo5 : Row W5 _ wl := hRo4.other hG4 fun k hk e => by have := hn3 k e; have := hRo.lt k hk; omega
        have hn4 : ∀ k, o4.ownBlock = some k → W2.heap.size ≤ k := fun k hk => (hG4.own k hk).elim (hn3 k) fun hh => Nat.le_trans (Nat.le_trans hG2.size hG3.size) hh
        obtain ⟨o5, W6, hrun5, hR5, hG5⟩ := row_append_row W5 o4 _ _ wl hR4 hRo5 (by have := hwl2.out; simp [be_length]; omega)
        have H6 := H5.gr hG5 fun k hk => by have := hn4 k hk; omega
        have hconv := conv_row hR5
        rw [List.nil_append, hasm.out hr.out] at hconv
        have HF : Hid _ := H6.bel
        clear c0 c1 c2 c3 c4 c5 c6 c7 c8 c9 c10 hR2 hR3 hR4 hR5 hG2 hG3 hG4 hG5 hRo hRo3 hRo4 hRo5 H3 H4 H5 H6 hn2 hn3 hn4
        go_wp2_with (at_builtin; refine Lib.wpList_append_run _ rfl (.tmp 34) (.tmp 35) 56 56 rfl _ _ rfl rfl _ _ hrun5 ?_; clear hrun5)
        refine bodyPost_ret (results_tmp2 rfl _ _ _) rfl ?_
        exact ⟨_, rfl, hv, HF.out⟩
end Go.Proofs.YtjigjckclpccmaaDoor
