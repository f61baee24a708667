/- OriginBack. -/
import Derived.Test.YtbifmikndpeafaaDoorF3
import Derived.Test.YtbifmikndpeafaaDoorG1
import Derived.Test.YtbifmikndpeafaaDoorE2
import Derived.Deep.Cut
namespace Go.Proofs.YtbifmikndpeafaaDoor
open Go.RowKit
set_option linter.unusedVariables false
set_option linter.unusedSimpArgs false
/-- a text with one byte more and an 'a' -/
def tcS (o : Og) (x : UInt8) : ByteArray := o.s ++ (⟨#[58, 47, 47]⟩ : ByteArray) ++ o.h ++ (⟨#[x]⟩ : ByteArray) ++ (⟨#[97]⟩ : ByteArray)
theorem tc_tx (o : Og) (x : UInt8) : tcS o x = txS o.s (bt (o.h.data.toList ++ [x, 97])) := by
  apply ba_eq
  simp [tcS, txS, bt, ByteArray.data_append]
theorem tc_bad {o : Og} (h : rtB o = true) {x : UInt8} (hx : x.toNat ≤ 44 ∨ x.toNat = 47 ∨ (59 ≤ x.toNat ∧ x.toNat ≤ 64) ∨ (91 ≤ x.toNat ∧ x.toNat ≤ 96) ∨ 123 ≤ x.toNat) : paE (tcS o x) = 150 := by
  rw [tc_tx]
  have hs : smC x = x := smC_id (by omega)
  have h97 : (97 : UInt8).toNat = 97 := rfl
  refine pa_bad h (x := x) (fun hm => ?_) (by rw [bt_list]; simp) ?_
  · rw [bt_list] at hm
    rcases List.mem_append.1 hm with hm | hm
    · rcases ho_all h _ hm with h | h | h
      · exact absurd h (by decide)
      · exact absurd h (by decide)
      · exact absurd h (by decide)
    · simp at hm
      have h5 : x.toNat = 58 := by rw [← hm]; rfl
      omega
  · rw [hs, lbB_iff]
    omega
set_option maxHeartbeats 16000000 in
set_option maxRecDepth 100000 in
theorem originBack_any (raw : Og) (m : Int) (nm : Bool) (x : UInt8) (w : World) (he : Env w) (hz : ow raw) (hm0 : 0 ≤ m) (hm1 : m ≤ 18446744073709551615) : Calls Tryd.prog 3 #[.agg (ogv raw), .int .u64 m, .bool nm, .int .u8 (x.toNat : Int)] w fun e w' => e = .returned (.bool true) ∧ Below w.heap.size w w' := by
  have HE : Hid (Env w) := he
  have HMd : Hid (∀ W, Calls Tryd.prog 10 #[.agg (ogv raw)] W (MdPost W)) := fun W => made_any raw W hz.1.2 hz.1.1 hz.2
  obtain ⟨n0, hn0⟩ : ∃ n, w.heap.size = n := ⟨_, rfl⟩
  obtain ⟨A0, hA0⟩ : ∃ W, w.alloc (.cells #[.string raw.s, .string raw.h, .int .i64 raw.p] 23) = W := ⟨_, rfl⟩
  have HB0 : Hid (Below w.heap.size w A0) := by rw [← hA0]; exact bel1 _ _
  have HO0 : Hid (OB A0 n0 raw) := by show OB _ _ _; rw [← hA0, ← hn0]; unfold OB; rw [heap_al, if_pos rfl]; rfl
  have hx8 := x.toNat_lt
  have hx11 : x.toNat ≤ 44 ∨ x.toNat = 45 ∨ x.toNat = 46 ∨ x.toNat = 47 ∨ (48 ≤ x.toNat ∧ x.toNat ≤ 57) ∨ x.toNat = 58 ∨ (59 ≤ x.toNat ∧ x.toNat ≤ 64) ∨ (65 ≤ x.toNat ∧ x.toNat ≤ 90) ∨ (91 ≤ x.toNat ∧ x.toNat ≤ 96) ∨ (97 ≤ x.toNat ∧ x.toNat ≤ 122) ∨ 123 ≤ x.toNat := by omega
  unfold ogv at HMd ⊢
  clear he hz
  go_enter Tryd.func3, Tryd.ntmps3
  go_wp2_with fail
  clear hA0
  go_at_call 9
  refine (first_any _ (HE.out.below HB0.out)).mono ?_
  rintro e A1 ⟨rfl, b1⟩
  have B1 : Hid (Below w.heap.size w A1) := HB0.out.trans (b1.mono HB0.out.size)
  have O1 : Hid (OB A1 n0 raw) := HO0.out.below b1
  clear b1
  obtain ⟨d0, d1, d2, _, _, _⟩ := O1.out.cells
  go_wp2_with fail
  go_at_call 10
  refine (HMd.out _).mono ?_
  rintro e A2 ⟨o, rfl, hrt, b2⟩
  unfold ogv
  have HRT : Hid (rtB o = true) := hrt
  have HB2 : Hid (Below w.heap.size w A2) := B1.out.trans (b2.mono B1.out.size)
  obtain ⟨a, ha⟩ : ∃ a, A2.heap.size = a := ⟨_, rfl⟩
  obtain ⟨A3, hA3⟩ : ∃ V, A2.alloc (.cells #[.string o.s, .string o.h, .int .i64 o.p] 23) = V := ⟨_, rfl⟩
  have HA3 : Hid (OB A3 a o) := by show OB _ _ _; rw [← hA3, ← ha]; unfold OB; rw [heap_al, if_pos rfl]; rfl
  have HB3 : Hid (Below w.heap.size w A3) := by rw [← hA3]; exact HB2.out.trans ((bel1 _ _).mono HB2.out.size)
  have HPr : Hid (∀ W, Env W → Calls Tryd.prog 11 #[.agg #[.string o.s, .string o.h, .int .i64 o.p]] W fun e w' => e = .returned (.tuple #[.string (prS o), .int .i64 0]) ∧ Below W.heap.size W w') := fun W hW => by
    have h1 := print_any o W hW
    unfold prV at h1
    rw [hrt, if_pos rfl] at h1
    exact h1
  obtain ⟨hu, hh, hp1, hp2⟩ := rtB_iff.1 hrt
  have hs5 := usP_size hu
  have hh5 := host_size hh
  have HSZ : Hid (∀ mm n', (spS o mm n').size ≤ 300) := fun mm n' => by unfold spS; rw [bt_size]; exact spL_len hrt mm n'
  obtain ⟨PS, hPS⟩ : ∃ PS, prS o = PS := ⟨_, rfl⟩
  rw [hPS] at HPr
  have e58 : (⟨#[58, 47, 47]⟩ : ByteArray).size = 3 := rfl
  have HPS : Hid (prS o = PS ∧ PS.size ≤ 310) := ⟨hPS, by rw [← hPS, pr_spelt hrt]; unfold txS; rw [app_size, app_size, e58]; have := HSZ.out 0 false; omega⟩
  have HP1 : Hid (∀ W, Env W → Calls Tryd.prog 12 #[.string PS] W fun e w' => e = .returned (.tuple #[.agg #[.string o.s, .string o.h, .int .i64 o.p], .int .i64 0]) ∧ Below W.heap.size W w') := fun W hW => by
    have h1 := parse_any PS W hW (by have := HPS.out.2; omega)
    have h2 := pa_spelt hrt 0 false
    rw [← pr_spelt hrt, HPS.out.1] at h2
    unfold paV ogv at h1
    rw [h2.1, h2.2] at h1
    exact h1
  clear d0 d1 d2 b2 hrt hu hh hp1 hp2 hPS
  obtain ⟨d0, d1, d2, _, _, _⟩ := HA3.out.cells
  go_wp2_with fail
  clear hA3
  go_at_call 11
  refine (HPr.out _ (HE.out.below HB3.out)).mono ?_
  rintro e A4 ⟨rfl, b4⟩
  have HB4 : Hid (Below w.heap.size w A4) := HB3.out.trans (b4.mono HB3.out.size)
  have HA4 : Hid (OB A4 a o) := HA3.out.below b4
  clear b4 d0 d1 d2
  go_wp2_with fail
  go_at_call 12
  refine (HP1.out _ (HE.out.below HB4.out)).mono ?_
  rintro e A5 ⟨rfl, b5⟩
  have HB5 : Hid (Below w.heap.size w A5) := HB4.out.trans (b5.mono HB4.out.size)
  have HA5 : Hid (OB A5 a o) := HA4.out.below b5
  clear b5
  go_upto_region 6 with fail
  obtain ⟨b, hb⟩ : ∃ b, A5.heap.size = b := ⟨_, rfl⟩
  obtain ⟨V0, hV0⟩ : ∃ V, A5.alloc (.cells #[.string o.s, .string o.h, .int .i64 o.p] 23) = V := ⟨_, rfl⟩
  have HBb0 : Hid (OB V0 b o) := by show OB _ _ _; rw [← hV0, ← hb]; unfold OB; rw [heap_al, if_pos rfl]; rfl
  have HA0 : Hid (OB V0 a o) := by show OB _ _ _; rw [← hV0]; exact HA5.out.below (bel1 _ _)
  have HBW : Hid (Below w.heap.size w V0) := by rw [← hV0]; exact HB5.out.trans ((bel1 _ _).mono HB5.out.size)
  have HE0 : Hid (Env V0) := HE.out.below HBW.out
  rw [hV0, hb]
  clear hV0 hb
  obtain ⟨S1, hS1⟩ : ∃ S1, o.s ++ (⟨#[58, 47, 47]⟩ : ByteArray) = S1 := ⟨_, rfl⟩
  have HS1 : Hid (o.s ++ (⟨#[58, 47, 47]⟩ : ByteArray) = S1 ∧ S1.size ≤ 8) := ⟨hS1, by rw [← hS1, app_size, e58]; omega⟩
  have s0 : ¬ (o.s.size + 3 > 9223372036854775807) := by omega
  go_cut [14, 15] from 21 (fun q g wx => ∃ c, q = .pointer (some ⟨c, 0, none⟩) ∧ g = .int .i64 0 ∧ Hid (OB wx a o) ∧ Hid (OB wx b o) ∧ Hid (OB wx c o) ∧ Hid (Below w.heap.size w wx))
  case first =>
    obtain ⟨SP, hSP⟩ : ∃ SP, spS o m nm = SP := ⟨_, rfl⟩
    have HSp : Hid (∀ W, Calls Tryd.prog 13 #[.agg #[.string o.s, .string o.h, .int .i64 o.p], .int .u64 m, .bool nm] W fun e w' => e = .returned (.string SP) ∧ Below W.heap.size W w') := fun W => by rw [← hSP]; exact sp_any o m nm W hm0 hm1 HRT.out
    have HSPs : Hid (SP.size ≤ 300) := by rw [← hSP]; exact HSZ.out m nm
    obtain ⟨TT, hTT⟩ : ∃ TT, S1 ++ SP = TT := ⟨_, rfl⟩
    have s1 : ¬ (S1.size + SP.size > 9223372036854775807) := by have := HS1.out.2; have := HSPs.out; omega
    have HPa : Hid (∀ W, Env W → Calls Tryd.prog 12 #[.string TT] W fun e w' => e = .returned (.tuple #[.agg #[.string o.s, .string o.h, .int .i64 o.p], .int .i64 0]) ∧ Below W.heap.size W w') := fun W hW => by
      have h1 := parse_any TT W hW (by rw [← hTT, app_size]; have := HS1.out.2; have := HSPs.out; omega)
      have h2 := pa_spelt HRT.out m nm
      unfold txS at h2
      rw [HS1.out.1, hSP, hTT] at h2
      unfold paV ogv at h1
      rw [h2.1, h2.2] at h1
      exact h1
    have hS6 : Hid (∀ V, Below V0.heap.size V0 V → V.cell? ⟨a, 0, none⟩ = some (.string o.s) ∧ V.cell? ⟨a, 1, none⟩ = some (.string o.h) ∧ V.cell? ⟨a, 2, none⟩ = some (.int .i64 o.p)) := fun V hV => ⟨(HA0.out.below hV).cells.c0, (HA0.out.below hV).cells.c1, (HA0.out.below hV).cells.c2⟩
    clear hSP
    have hIW : Below V0.heap.size V0 V0.drew := (Below.refl _ _).drew
    refine wp_region_held_drew (S := (fun V => V.cell? ⟨a, 0, none⟩ = some (.string o.s) ∧ V.cell? ⟨a, 1, none⟩ = some (.string o.h) ∧ V.cell? ⟨a, 2, none⟩ = some (.int .i64 o.p))) (by kernel_rfl) (hS6.out _ hIW) (fun hHeld => ?_)
    generalize hWg : World.drew _ = W at hIW hHeld ⊢
    clear hWg
    refine wpAnyH_take (i := 0) (oi := { dst := some 36, op := Op.fieldAddr 23 (Operand.tmp 9) 0, type := 0, pos := "outright.go:70", after := #[], guard := none }) (v := ?vv1) rfl (by kernel_rfl) (by kernel_rfl) (by kernel_rfl) (fun _ _ _ h => h) (Or.inl ⟨by rfl, ?hy1⟩) (by assumption) ?_
    case hy1 => (intro w hSw; (try dsimp only at hSw); go_simp; all_goals with_reducible rfl)
    try simp only [Act.put, List.setIfInBounds_toArray, List.set_cons_zero, List.set_cons_succ]
    refine wpAnyH_take (i := 1) (oi := { dst := some 37, op := Op.load 9 (Operand.tmp 36), type := 9, pos := "outright.go:70", after := #[{ on := 0, ground := Ground.data }], guard := none }) (v := ?vv2) rfl (by kernel_rfl) (by kernel_rfl) (by kernel_rfl) (fun _ _ _ h => h) (Or.inl ⟨by rfl, ?hy2⟩) (by assumption) ?_
    case hy2 => (intro w hSw; (try dsimp only at hSw); go_simp; all_goals with_reducible rfl)
    try simp only [Act.put, List.setIfInBounds_toArray, List.set_cons_zero, List.set_cons_succ]
    refine wpAnyH_take (i := 2) (oi := { dst := some 38, op := Op.binOp BinOp.add 9 (Operand.tmp 37) (Operand.const (Value.string { data := #[58, 47, 47] })) 9, type := 9, pos := "outright.go:70", after := #[{ on := 1, ground := Ground.data }], guard := none }) (v := ?vv3) rfl (by kernel_rfl) (by kernel_rfl) (by kernel_rfl) (fun _ _ _ h => h) (Or.inl ⟨by rfl, ?hy3⟩) (by assumption) ?_
    case hy3 => (intro w hSw; (try dsimp only at hSw); go_simp; all_goals with_reducible rfl)
    try simp only [Act.put, List.setIfInBounds_toArray, List.set_cons_zero, List.set_cons_succ]
    refine wpAnyH_take (i := 3) (oi := { dst := some 39, op := Op.load 23 (Operand.tmp 9), type := 23, pos := "outright.go:70", after := #[], guard := none }) (v := ?vv4) rfl (by kernel_rfl) (by kernel_rfl) (by kernel_rfl) (fun _ _ _ h => h) (Or.inl ⟨by rfl, ?hy4⟩) (by assumption) ?_
    case hy4 => (intro w hSw; (try dsimp only at hSw); go_simp; all_goals with_reducible rfl)
    try simp only [Act.put, List.setIfInBounds_toArray, List.set_cons_zero, List.set_cons_succ]
    refine wpAnyH_take (i := 4) (oi := { dst := some 40, op := Op.move (Operand.tmp 1), type := 24, pos := "outright.go:70", after := #[], guard := none }) (v := ?vv5) rfl (by kernel_rfl) (by kernel_rfl) (by kernel_rfl) (fun _ _ _ h => h) (Or.inl ⟨by rfl, ?hy5⟩) (by assumption) ?_
    case hy5 => (intro w hSw; (try dsimp only at hSw); go_simp; all_goals with_reducible rfl)
    try simp only [Act.put, List.setIfInBounds_toArray, List.set_cons_zero, List.set_cons_succ]
    refine wpAnyH_take (i := 5) (oi := { dst := some 41, op := Op.move (Operand.tmp 2), type := 4, pos := "outright.go:70", after := #[], guard := none }) (v := ?vv6) rfl (by kernel_rfl) (by kernel_rfl) (by kernel_rfl) (fun _ _ _ h => h) (Or.inl ⟨by rfl, ?hy6⟩) (by assumption) ?_
    case hy6 => (intro w hSw; (try dsimp only at hSw); go_simp; all_goals with_reducible rfl)
    try simp only [Act.put, List.setIfInBounds_toArray, List.set_cons_zero, List.set_cons_succ]
    refine wpAnyH_ready (rs := [6, 12]) (by kernel_rfl) (by simp) ?_
    refine AllReadyH.cons (o := { dst := some 42, op := Op.call { callee := Callee.value (Operand.func 13), args := #[Operand.tmp 39, Operand.tmp 40, Operand.tmp 41], argTypes := #[23, 24, 4] }, type := 9, pos := "outright.go:70", after := #[{ on := 3, ground := Ground.data }, { on := 4, ground := Ground.data }, { on := 5, ground := Ground.data }], guard := none }) rfl (fun K hK => ?_) ?_
    · go_simp
      refine (HSp.out _).mono ?_
      rintro e' Wx ⟨rfl, bX⟩
      have hWx : Below V0.heap.size V0 Wx := hIW.trans (bX.mono hIW.size)
      clear bX
      go_wp2_with fail
      refine hK.out _ _ (hS6.out _ hWx) (fun hHeld => ?_)
      clear hK K
      try simp only [Act.put, List.setIfInBounds_toArray, List.set_cons_zero, List.set_cons_succ]
      refine wpAnyH_take (i := 7) (oi := { dst := some 43, op := Op.binOp BinOp.add 9 (Operand.tmp 38) (Operand.tmp 42) 9, type := 9, pos := "outright.go:70", after := #[{ on := 2, ground := Ground.data }, { on := 6, ground := Ground.data }], guard := none }) (v := ?vv7) rfl (by kernel_rfl) (by kernel_rfl) (by kernel_rfl) (fun _ _ _ h => h) (Or.inl ⟨by rfl, ?hy7⟩) (by assumption) ?_
      case hy7 => (intro w hSw; (try dsimp only at hSw); go_simp; all_goals with_reducible rfl)
      try simp only [Act.put, List.setIfInBounds_toArray, List.set_cons_zero, List.set_cons_succ]
      refine wpAnyH_ready (rs := [8, 12]) (by kernel_rfl) (by simp) ?_
      refine AllReadyH.cons (o := { dst := some 44, op := Op.call { callee := Callee.value (Operand.func 12), args := #[Operand.tmp 43], argTypes := #[9] }, type := 30, pos := "outright.go:70", after := #[{ on := 7, ground := Ground.data }, { on := 6, ground := Ground.chain }], guard := none }) rfl (fun K hK => ?_) ?_
      · go_simp
        refine (HPa.out _ (HE0.out.below hWx)).mono ?_
        rintro e' Wxx ⟨rfl, bX⟩
        have hWxx : Below V0.heap.size V0 Wxx := hWx.trans (bX.mono hWx.size)
        clear bX
        go_wp2_with fail
        refine hK.out _ _ (hS6.out _ hWxx) (fun hHeld => ?_)
        clear hK K
        try simp only [Act.put, List.setIfInBounds_toArray, List.set_cons_zero, List.set_cons_succ]
        refine wpAnyH_take (i := 9) (oi := { dst := some 35, op := Op.move (Operand.tmp 44), type := 30, pos := "outright.go:70", after := #[{ on := 8, ground := Ground.data }], guard := none }) (v := ?vv8) rfl (by kernel_rfl) (by kernel_rfl) (by kernel_rfl) (fun _ _ _ h => h) (Or.inl ⟨by rfl, ?hy8⟩) (by assumption) ?_
        case hy8 => (intro w hSw; (try dsimp only at hSw); go_simp; all_goals with_reducible rfl)
        try simp only [Act.put, List.setIfInBounds_toArray, List.set_cons_zero, List.set_cons_succ]
        refine wpAnyH_take (i := 10) (oi := { dst := some 45, op := Op.extract (Operand.tmp 35) 0, type := 23, pos := "outright.go:70", after := #[{ on := 9, ground := Ground.data }], guard := none }) (v := ?vv9) rfl (by kernel_rfl) (by kernel_rfl) (by kernel_rfl) (fun _ _ _ h => h) (Or.inl ⟨by rfl, ?hy9⟩) (by assumption) ?_
        case hy9 => (intro w hSw; (try dsimp only at hSw); go_simp; all_goals with_reducible rfl)
        try simp only [Act.put, List.setIfInBounds_toArray, List.set_cons_zero, List.set_cons_succ]
        refine wpAnyH_take (i := 11) (oi := { dst := some 46, op := Op.extract (Operand.tmp 35) 1, type := 27, pos := "outright.go:70", after := #[{ on := 9, ground := Ground.data }, { on := 13, ground := Ground.gcOnly Departure.lateStores }], guard := none }) (v := ?vv10) rfl (by kernel_rfl) (by kernel_rfl) (by kernel_rfl) (fun _ _ _ h => h) (Or.inl ⟨by rfl, ?hy10⟩) (by assumption) ?_
        case hy10 => (intro w hSw; (try dsimp only at hSw); go_simp; all_goals with_reducible rfl)
        try simp only [Act.put, List.setIfInBounds_toArray, List.set_cons_zero, List.set_cons_succ]
        refine wpAnyH_ready (rs := [12]) (by kernel_rfl) (by simp) ?_
        refine AllReadyH.cons (o := { dst := some 14, op := Op.alloc 23, type := 0, pos := "outright.go:70", after := #[], guard := none }) rfl (fun K hK => ?_) AllReadyH.nil
        obtain ⟨c, hc⟩ : ∃ c, Wxx.heap.size = c := ⟨_, rfl⟩
        obtain ⟨Wxxx, hV9⟩ : ∃ V, Wxx.alloc (.cells #[.string ⟨#[]⟩, .string ⟨#[]⟩, .int .i64 0] 23) = V := ⟨_, rfl⟩
        have hWxxx : Below V0.heap.size V0 Wxxx := by rw [← hV9]; exact hWxx.trans ((bel1 _ _).mono hWxx.size)
        have oWxxx : OB Wxxx c og0 := by rw [← hV9, ← hc]; unfold OB; rw [heap_al, if_pos rfl]; rfl
        have hcV : V0.heap.size ≤ c := by have := hWxx.size; rw [hc] at this; exact this
        go_simp
        go_wp2_with fail
        refine hK.out _ _ (hS6.out _ hWxxx) (fun hHeld => ?_)
        clear hK K hV9 hc
        try simp only [Act.put, List.setIfInBounds_toArray, List.set_cons_zero, List.set_cons_succ]
        refine wpAnyH_ready (rs := [13]) (by kernel_rfl) (by simp) ?_
        refine AllReadyH.cons (o := { dst := none, op := Op.store 23 (Operand.tmp 14) (Operand.tmp 45), type := 0, pos := "outright.go:70", after := #[{ on := 12, ground := Ground.data }, { on := 10, ground := Ground.data }, { on := 8, ground := Ground.chain }, { on := 0, ground := Ground.phase }, { on := 1, ground := Ground.phase }, { on := 2, ground := Ground.phase }, { on := 3, ground := Ground.phase }, { on := 4, ground := Ground.phase }, { on := 5, ground := Ground.phase }, { on := 6, ground := Ground.phase }, { on := 7, ground := Ground.phase }, { on := 8, ground := Ground.phase }, { on := 9, ground := Ground.phase }, { on := 10, ground := Ground.phase }, { on := 11, ground := Ground.textOnly Departure.lateStores }, { on := 12, ground := Ground.phase }], guard := none }) rfl (fun K hK => ?_) AllReadyH.nil
        have hg := oWxxx
        obtain ⟨f0, f1, f2, f3, f4, f5⟩ := hg.cells
        simp only [og0] at f0 f1 f2
        have hBZ : Below V0.heap.size V0 (setO Wxxx c o) := hWxxx.trans (setO_below _ hcV)
        have HZc : Hid (OB (setO Wxxx c o) c o) := hg.set o
        have HZa : Hid (OB (setO Wxxx c o) a o) := HA0.out.below hBZ
        have HZb : Hid (OB (setO Wxxx c o) b o) := HBb0.out.below hBZ
        have HZB : Hid (Below w.heap.size w (setO Wxxx c o)) := HBW.out.trans (hBZ.mono HBW.out.size)
        have HS9 := hS6.out _ hBZ
        clear hg hBZ
        unfold setO at HZc HZa HZb HZB HS9
        go_simp
        go_wp2_with fail
        refine hK.out _ _ HS9 (fun hHeld => ?_)
        clear hK K f0 f1 f2 f3 f4 f5 HS9
        generalize ((Wxxx.setCell ⟨c, 0, none⟩ (.string o.s)).setCell ⟨c, 1, none⟩ (.string o.h)).setCell ⟨c, 2, none⟩ (.int .i64 o.p) = Z at HZc HZa HZb HZB hHeld ⊢
        try simp only [Act.put, List.setIfInBounds_toArray, List.set_cons_zero, List.set_cons_succ]
        refine wpAnyH_take (i := 14) (oi := { dst := some 15, op := Op.assign (Operand.tmp 46), type := 27, pos := "outright.go:70", after := #[{ on := 11, ground := Ground.data }, { on := 13, ground := Ground.chain }, { on := 0, ground := Ground.phase }, { on := 1, ground := Ground.phase }, { on := 2, ground := Ground.phase }, { on := 3, ground := Ground.phase }, { on := 4, ground := Ground.phase }, { on := 5, ground := Ground.phase }, { on := 6, ground := Ground.phase }, { on := 7, ground := Ground.phase }, { on := 8, ground := Ground.phase }, { on := 9, ground := Ground.phase }, { on := 10, ground := Ground.phase }, { on := 11, ground := Ground.phase }, { on := 12, ground := Ground.phase }, { on := 13, ground := Ground.phase }], guard := none }) (v := ?vv11) rfl (by kernel_rfl) (by kernel_rfl) (by kernel_rfl) (fun _ _ _ h => h) (Or.inl ⟨by rfl, ?hy11⟩) (by assumption) ?_
        case hy11 => (intro w hSw; (try dsimp only at hSw); go_simp; all_goals with_reducible rfl)
        try simp only [Act.put, List.setIfInBounds_toArray, List.set_cons_zero, List.set_cons_succ]
        refine wpAnyH_done (by kernel_rfl) ?_ _
        go_wp2_with fail
        go_meet
        exact ⟨c, rfl, rfl, HZa.out, HZb.out, HZc.out, HZB.out⟩
      refine AllReadyH.cons (o := { dst := some 14, op := Op.alloc 23, type := 0, pos := "outright.go:70", after := #[], guard := none }) rfl (fun K hK => ?_) AllReadyH.nil
      obtain ⟨c, hc⟩ : ∃ c, Wx.heap.size = c := ⟨_, rfl⟩
      obtain ⟨Wxx, hV9⟩ : ∃ V, Wx.alloc (.cells #[.string ⟨#[]⟩, .string ⟨#[]⟩, .int .i64 0] 23) = V := ⟨_, rfl⟩
      have hWxx : Below V0.heap.size V0 Wxx := by rw [← hV9]; exact hWx.trans ((bel1 _ _).mono hWx.size)
      have oWxx : OB Wxx c og0 := by rw [← hV9, ← hc]; unfold OB; rw [heap_al, if_pos rfl]; rfl
      have hcV : V0.heap.size ≤ c := by have := hWx.size; rw [hc] at this; exact this
      go_simp
      go_wp2_with fail
      refine hK.out _ _ (hS6.out _ hWxx) (fun hHeld => ?_)
      clear hK K hV9 hc
      try simp only [Act.put, List.setIfInBounds_toArray, List.set_cons_zero, List.set_cons_succ]
      refine wpAnyH_ready (rs := [8]) (by kernel_rfl) (by simp) ?_
      refine AllReadyH.cons (o := { dst := some 44, op := Op.call { callee := Callee.value (Operand.func 12), args := #[Operand.tmp 43], argTypes := #[9] }, type := 30, pos := "outright.go:70", after := #[{ on := 7, ground := Ground.data }, { on := 6, ground := Ground.chain }], guard := none }) rfl (fun K hK => ?_) AllReadyH.nil
      go_simp
      refine (HPa.out _ (HE0.out.below hWxx)).mono ?_
      rintro e' Wxxx ⟨rfl, bX⟩
      have hWxxx : Below V0.heap.size V0 Wxxx := hWxx.trans (bX.mono hWxx.size)
      have oWxxx : OB Wxxx c og0 := oWxx.below bX
      clear bX
      go_wp2_with fail
      refine hK.out _ _ (hS6.out _ hWxxx) (fun hHeld => ?_)
      clear hK K
      try simp only [Act.put, List.setIfInBounds_toArray, List.set_cons_zero, List.set_cons_succ]
      refine wpAnyH_take (i := 9) (oi := { dst := some 35, op := Op.move (Operand.tmp 44), type := 30, pos := "outright.go:70", after := #[{ on := 8, ground := Ground.data }], guard := none }) (v := ?vv12) rfl (by kernel_rfl) (by kernel_rfl) (by kernel_rfl) (fun _ _ _ h => h) (Or.inl ⟨by rfl, ?hy12⟩) (by assumption) ?_
      case hy12 => (intro w hSw; (try dsimp only at hSw); go_simp; all_goals with_reducible rfl)
      try simp only [Act.put, List.setIfInBounds_toArray, List.set_cons_zero, List.set_cons_succ]
      refine wpAnyH_take (i := 10) (oi := { dst := some 45, op := Op.extract (Operand.tmp 35) 0, type := 23, pos := "outright.go:70", after := #[{ on := 9, ground := Ground.data }], guard := none }) (v := ?vv13) rfl (by kernel_rfl) (by kernel_rfl) (by kernel_rfl) (fun _ _ _ h => h) (Or.inl ⟨by rfl, ?hy13⟩) (by assumption) ?_
      case hy13 => (intro w hSw; (try dsimp only at hSw); go_simp; all_goals with_reducible rfl)
      try simp only [Act.put, List.setIfInBounds_toArray, List.set_cons_zero, List.set_cons_succ]
      refine wpAnyH_take (i := 11) (oi := { dst := some 46, op := Op.extract (Operand.tmp 35) 1, type := 27, pos := "outright.go:70", after := #[{ on := 9, ground := Ground.data }, { on := 13, ground := Ground.gcOnly Departure.lateStores }], guard := none }) (v := ?vv14) rfl (by kernel_rfl) (by kernel_rfl) (by kernel_rfl) (fun _ _ _ h => h) (Or.inl ⟨by rfl, ?hy14⟩) (by assumption) ?_
      case hy14 => (intro w hSw; (try dsimp only at hSw); go_simp; all_goals with_reducible rfl)
      try simp only [Act.put, List.setIfInBounds_toArray, List.set_cons_zero, List.set_cons_succ]
      refine wpAnyH_ready (rs := [13]) (by kernel_rfl) (by simp) ?_
      refine AllReadyH.cons (o := { dst := none, op := Op.store 23 (Operand.tmp 14) (Operand.tmp 45), type := 0, pos := "outright.go:70", after := #[{ on := 12, ground := Ground.data }, { on := 10, ground := Ground.data }, { on := 8, ground := Ground.chain }, { on := 0, ground := Ground.phase }, { on := 1, ground := Ground.phase }, { on := 2, ground := Ground.phase }, { on := 3, ground := Ground.phase }, { on := 4, ground := Ground.phase }, { on := 5, ground := Ground.phase }, { on := 6, ground := Ground.phase }, { on := 7, ground := Ground.phase }, { on := 8, ground := Ground.phase }, { on := 9, ground := Ground.phase }, { on := 10, ground := Ground.phase }, { on := 11, ground := Ground.textOnly Departure.lateStores }, { on := 12, ground := Ground.phase }], guard := none }) rfl (fun K hK => ?_) AllReadyH.nil
      have hg := oWxxx
      obtain ⟨f0, f1, f2, f3, f4, f5⟩ := hg.cells
      simp only [og0] at f0 f1 f2
      have hBZ : Below V0.heap.size V0 (setO Wxxx c o) := hWxxx.trans (setO_below _ hcV)
      have HZc : Hid (OB (setO Wxxx c o) c o) := hg.set o
      have HZa : Hid (OB (setO Wxxx c o) a o) := HA0.out.below hBZ
      have HZb : Hid (OB (setO Wxxx c o) b o) := HBb0.out.below hBZ
      have HZB : Hid (Below w.heap.size w (setO Wxxx c o)) := HBW.out.trans (hBZ.mono HBW.out.size)
      have HS9 := hS6.out _ hBZ
      clear hg hBZ
      unfold setO at HZc HZa HZb HZB HS9
      go_simp
      go_wp2_with fail
      refine hK.out _ _ HS9 (fun hHeld => ?_)
      clear hK K f0 f1 f2 f3 f4 f5 HS9
      generalize ((Wxxx.setCell ⟨c, 0, none⟩ (.string o.s)).setCell ⟨c, 1, none⟩ (.string o.h)).setCell ⟨c, 2, none⟩ (.int .i64 o.p) = Z at HZc HZa HZb HZB hHeld ⊢
      try simp only [Act.put, List.setIfInBounds_toArray, List.set_cons_zero, List.set_cons_succ]
      refine wpAnyH_take (i := 14) (oi := { dst := some 15, op := Op.assign (Operand.tmp 46), type := 27, pos := "outright.go:70", after := #[{ on := 11, ground := Ground.data }, { on := 13, ground := Ground.chain }, { on := 0, ground := Ground.phase }, { on := 1, ground := Ground.phase }, { on := 2, ground := Ground.phase }, { on := 3, ground := Ground.phase }, { on := 4, ground := Ground.phase }, { on := 5, ground := Ground.phase }, { on := 6, ground := Ground.phase }, { on := 7, ground := Ground.phase }, { on := 8, ground := Ground.phase }, { on := 9, ground := Ground.phase }, { on := 10, ground := Ground.phase }, { on := 11, ground := Ground.phase }, { on := 12, ground := Ground.phase }, { on := 13, ground := Ground.phase }], guard := none }) (v := ?vv15) rfl (by kernel_rfl) (by kernel_rfl) (by kernel_rfl) (fun _ _ _ h => h) (Or.inl ⟨by rfl, ?hy15⟩) (by assumption) ?_
      case hy15 => (intro w hSw; (try dsimp only at hSw); go_simp; all_goals with_reducible rfl)
      try simp only [Act.put, List.setIfInBounds_toArray, List.set_cons_zero, List.set_cons_succ]
      refine wpAnyH_done (by kernel_rfl) ?_ _
      go_wp2_with fail
      go_meet
      exact ⟨c, rfl, rfl, HZa.out, HZb.out, HZc.out, HZB.out⟩
    refine AllReadyH.cons (o := { dst := some 14, op := Op.alloc 23, type := 0, pos := "outright.go:70", after := #[], guard := none }) rfl (fun K hK => ?_) AllReadyH.nil
    obtain ⟨c, hc⟩ : ∃ c, W.heap.size = c := ⟨_, rfl⟩
    obtain ⟨Wx, hV9⟩ : ∃ V, W.alloc (.cells #[.string ⟨#[]⟩, .string ⟨#[]⟩, .int .i64 0] 23) = V := ⟨_, rfl⟩
    have hWx : Below V0.heap.size V0 Wx := by rw [← hV9]; exact hIW.trans ((bel1 _ _).mono hIW.size)
    have oWx : OB Wx c og0 := by rw [← hV9, ← hc]; unfold OB; rw [heap_al, if_pos rfl]; rfl
    have hcV : V0.heap.size ≤ c := by have := hIW.size; rw [hc] at this; exact this
    go_simp
    go_wp2_with fail
    refine hK.out _ _ (hS6.out _ hWx) (fun hHeld => ?_)
    clear hK K hV9 hc
    try simp only [Act.put, List.setIfInBounds_toArray, List.set_cons_zero, List.set_cons_succ]
    refine wpAnyH_ready (rs := [6]) (by kernel_rfl) (by simp) ?_
    refine AllReadyH.cons (o := { dst := some 42, op := Op.call { callee := Callee.value (Operand.func 13), args := #[Operand.tmp 39, Operand.tmp 40, Operand.tmp 41], argTypes := #[23, 24, 4] }, type := 9, pos := "outright.go:70", after := #[{ on := 3, ground := Ground.data }, { on := 4, ground := Ground.data }, { on := 5, ground := Ground.data }], guard := none }) rfl (fun K hK => ?_) AllReadyH.nil
    go_simp
    refine (HSp.out _).mono ?_
    rintro e' Wxx ⟨rfl, bX⟩
    have hWxx : Below V0.heap.size V0 Wxx := hWx.trans (bX.mono hWx.size)
    have oWxx : OB Wxx c og0 := oWx.below bX
    clear bX
    go_wp2_with fail
    refine hK.out _ _ (hS6.out _ hWxx) (fun hHeld => ?_)
    clear hK K
    try simp only [Act.put, List.setIfInBounds_toArray, List.set_cons_zero, List.set_cons_succ]
    refine wpAnyH_take (i := 7) (oi := { dst := some 43, op := Op.binOp BinOp.add 9 (Operand.tmp 38) (Operand.tmp 42) 9, type := 9, pos := "outright.go:70", after := #[{ on := 2, ground := Ground.data }, { on := 6, ground := Ground.data }], guard := none }) (v := ?vv16) rfl (by kernel_rfl) (by kernel_rfl) (by kernel_rfl) (fun _ _ _ h => h) (Or.inl ⟨by rfl, ?hy16⟩) (by assumption) ?_
    case hy16 => (intro w hSw; (try dsimp only at hSw); go_simp; all_goals with_reducible rfl)
    try simp only [Act.put, List.setIfInBounds_toArray, List.set_cons_zero, List.set_cons_succ]
    refine wpAnyH_ready (rs := [8]) (by kernel_rfl) (by simp) ?_
    refine AllReadyH.cons (o := { dst := some 44, op := Op.call { callee := Callee.value (Operand.func 12), args := #[Operand.tmp 43], argTypes := #[9] }, type := 30, pos := "outright.go:70", after := #[{ on := 7, ground := Ground.data }, { on := 6, ground := Ground.chain }], guard := none }) rfl (fun K hK => ?_) AllReadyH.nil
    go_simp
    refine (HPa.out _ (HE0.out.below hWxx)).mono ?_
    rintro e' Wxxx ⟨rfl, bX⟩
    have hWxxx : Below V0.heap.size V0 Wxxx := hWxx.trans (bX.mono hWxx.size)
    have oWxxx : OB Wxxx c og0 := oWxx.below bX
    clear bX
    go_wp2_with fail
    refine hK.out _ _ (hS6.out _ hWxxx) (fun hHeld => ?_)
    clear hK K
    try simp only [Act.put, List.setIfInBounds_toArray, List.set_cons_zero, List.set_cons_succ]
    refine wpAnyH_take (i := 9) (oi := { dst := some 35, op := Op.move (Operand.tmp 44), type := 30, pos := "outright.go:70", after := #[{ on := 8, ground := Ground.data }], guard := none }) (v := ?vv17) rfl (by kernel_rfl) (by kernel_rfl) (by kernel_rfl) (fun _ _ _ h => h) (Or.inl ⟨by rfl, ?hy17⟩) (by assumption) ?_
    case hy17 => (intro w hSw; (try dsimp only at hSw); go_simp; all_goals with_reducible rfl)
    try simp only [Act.put, List.setIfInBounds_toArray, List.set_cons_zero, List.set_cons_succ]
    refine wpAnyH_take (i := 10) (oi := { dst := some 45, op := Op.extract (Operand.tmp 35) 0, type := 23, pos := "outright.go:70", after := #[{ on := 9, ground := Ground.data }], guard := none }) (v := ?vv18) rfl (by kernel_rfl) (by kernel_rfl) (by kernel_rfl) (fun _ _ _ h => h) (Or.inl ⟨by rfl, ?hy18⟩) (by assumption) ?_
    case hy18 => (intro w hSw; (try dsimp only at hSw); go_simp; all_goals with_reducible rfl)
    try simp only [Act.put, List.setIfInBounds_toArray, List.set_cons_zero, List.set_cons_succ]
    refine wpAnyH_take (i := 11) (oi := { dst := some 46, op := Op.extract (Operand.tmp 35) 1, type := 27, pos := "outright.go:70", after := #[{ on := 9, ground := Ground.data }, { on := 13, ground := Ground.gcOnly Departure.lateStores }], guard := none }) (v := ?vv19) rfl (by kernel_rfl) (by kernel_rfl) (by kernel_rfl) (fun _ _ _ h => h) (Or.inl ⟨by rfl, ?hy19⟩) (by assumption) ?_
    case hy19 => (intro w hSw; (try dsimp only at hSw); go_simp; all_goals with_reducible rfl)
    try simp only [Act.put, List.setIfInBounds_toArray, List.set_cons_zero, List.set_cons_succ]
    refine wpAnyH_ready (rs := [13]) (by kernel_rfl) (by simp) ?_
    refine AllReadyH.cons (o := { dst := none, op := Op.store 23 (Operand.tmp 14) (Operand.tmp 45), type := 0, pos := "outright.go:70", after := #[{ on := 12, ground := Ground.data }, { on := 10, ground := Ground.data }, { on := 8, ground := Ground.chain }, { on := 0, ground := Ground.phase }, { on := 1, ground := Ground.phase }, { on := 2, ground := Ground.phase }, { on := 3, ground := Ground.phase }, { on := 4, ground := Ground.phase }, { on := 5, ground := Ground.phase }, { on := 6, ground := Ground.phase }, { on := 7, ground := Ground.phase }, { on := 8, ground := Ground.phase }, { on := 9, ground := Ground.phase }, { on := 10, ground := Ground.phase }, { on := 11, ground := Ground.textOnly Departure.lateStores }, { on := 12, ground := Ground.phase }], guard := none }) rfl (fun K hK => ?_) AllReadyH.nil
    have hg := oWxxx
    obtain ⟨f0, f1, f2, f3, f4, f5⟩ := hg.cells
    simp only [og0] at f0 f1 f2
    have hBZ : Below V0.heap.size V0 (setO Wxxx c o) := hWxxx.trans (setO_below _ hcV)
    have HZc : Hid (OB (setO Wxxx c o) c o) := hg.set o
    have HZa : Hid (OB (setO Wxxx c o) a o) := HA0.out.below hBZ
    have HZb : Hid (OB (setO Wxxx c o) b o) := HBb0.out.below hBZ
    have HZB : Hid (Below w.heap.size w (setO Wxxx c o)) := HBW.out.trans (hBZ.mono HBW.out.size)
    have HS9 := hS6.out _ hBZ
    clear hg hBZ
    unfold setO at HZc HZa HZb HZB HS9
    go_simp
    go_wp2_with fail
    refine hK.out _ _ HS9 (fun hHeld => ?_)
    clear hK K f0 f1 f2 f3 f4 f5 HS9
    generalize ((Wxxx.setCell ⟨c, 0, none⟩ (.string o.s)).setCell ⟨c, 1, none⟩ (.string o.h)).setCell ⟨c, 2, none⟩ (.int .i64 o.p) = Z at HZc HZa HZb HZB hHeld ⊢
    try simp only [Act.put, List.setIfInBounds_toArray, List.set_cons_zero, List.set_cons_succ]
    refine wpAnyH_take (i := 14) (oi := { dst := some 15, op := Op.assign (Operand.tmp 46), type := 27, pos := "outright.go:70", after := #[{ on := 11, ground := Ground.data }, { on := 13, ground := Ground.chain }, { on := 0, ground := Ground.phase }, { on := 1, ground := Ground.phase }, { on := 2, ground := Ground.phase }, { on := 3, ground := Ground.phase }, { on := 4, ground := Ground.phase }, { on := 5, ground := Ground.phase }, { on := 6, ground := Ground.phase }, { on := 7, ground := Ground.phase }, { on := 8, ground := Ground.phase }, { on := 9, ground := Ground.phase }, { on := 10, ground := Ground.phase }, { on := 11, ground := Ground.phase }, { on := 12, ground := Ground.phase }, { on := 13, ground := Ground.phase }], guard := none }) (v := ?vv20) rfl (by kernel_rfl) (by kernel_rfl) (by kernel_rfl) (fun _ _ _ h => h) (Or.inl ⟨by rfl, ?hy20⟩) (by assumption) ?_
    case hy20 => (intro w hSw; (try dsimp only at hSw); go_simp; all_goals with_reducible rfl)
    try simp only [Act.put, List.setIfInBounds_toArray, List.set_cons_zero, List.set_cons_succ]
    refine wpAnyH_done (by kernel_rfl) ?_ _
    go_wp2_with fail
    go_meet
    exact ⟨c, rfl, rfl, HZa.out, HZb.out, HZc.out, HZB.out⟩
  case rest =>
    obtain ⟨c, rfl, rfl, HZa, HZb, HZc, HZB⟩ := hcut
    obtain ⟨V1, hV1⟩ : ∃ V, wc = V := ⟨_, rfl⟩
    rw [hV1] at HZa HZb HZc HZB ⊢
    clear hV1
    obtain ⟨SZ, hSZ⟩ : ∃ SP, spS o 0 false = SP := ⟨_, rfl⟩
    have HSz : Hid (∀ W, Calls Tryd.prog 13 #[.agg #[.string o.s, .string o.h, .int .i64 o.p], .int .u64 0, .bool false] W fun e w' => e = .returned (.string SZ) ∧ Below W.heap.size W w') := fun W => by rw [← hSZ]; exact sp_any o 0 false W (by omega) (by omega) HRT.out
    have s2 : ¬ (S1.size + SZ.size > 9223372036854775807) := by have := HS1.out.2; have h1 := HSZ.out 0 false; rw [hSZ] at h1; omega
    have hPT : S1 ++ SZ = PS := by
      have h1 := pr_spelt HRT.out
      unfold txS at h1
      rw [HS1.out.1, hSZ, HPS.out.1] at h1
      exact h1.symm
    have hnq := neq_og o o
    rw [ogD_self] at hnq
    simp only [Bool.not_true] at hnq
    have hS7 : Hid (∀ V, Below V1.heap.size V1 V → V.cell? ⟨a, 0, none⟩ = some (.string o.s) ∧ V.cell? ⟨a, 1, none⟩ = some (.string o.h) ∧ V.cell? ⟨a, 2, none⟩ = some (.int .i64 o.p) ∧ V.cell? ⟨b, 0, none⟩ = some (.string o.s) ∧ V.cell? ⟨b, 1, none⟩ = some (.string o.h) ∧ V.cell? ⟨b, 2, none⟩ = some (.int .i64 o.p) ∧ V.cell? ⟨c, 0, none⟩ = some (.string o.s) ∧ V.cell? ⟨c, 1, none⟩ = some (.string o.h) ∧ V.cell? ⟨c, 2, none⟩ = some (.int .i64 o.p)) := fun V hV => ⟨(HZa.out.below hV).cells.c0, (HZa.out.below hV).cells.c1, (HZa.out.below hV).cells.c2, (HZb.out.below hV).cells.c0, (HZb.out.below hV).cells.c1, (HZb.out.below hV).cells.c2, (HZc.out.below hV).cells.c0, (HZc.out.below hV).cells.c1, (HZc.out.below hV).cells.c2⟩
    obtain ⟨S2, hS2⟩ : ∃ S2, S1 ++ o.h = S2 := ⟨_, rfl⟩
    have HS2 : Hid (S1 ++ o.h = S2 ∧ S2.size ≤ 300) := ⟨hS2, by rw [← hS2, app_size]; have := HS1.out.2; omega⟩
    have s3 : ¬ (S1.size + o.h.size > 9223372036854775807) := by have := HS1.out.2; omega
    obtain ⟨S3, hS3⟩ : ∃ S3, S2 ++ (⟨#[x]⟩ : ByteArray) = S3 := ⟨_, rfl⟩
    have e1x : (⟨#[x]⟩ : ByteArray).size = 1 := rfl
    have e1y : (⟨#[97]⟩ : ByteArray).size = 1 := rfl
    have e1z : (⟨#[47]⟩ : ByteArray).size = 1 := rfl
    have HS3 : Hid (S2 ++ (⟨#[x]⟩ : ByteArray) = S3 ∧ S3.size ≤ 301) := ⟨hS3, by rw [← hS3, app_size, e1x]; have := HS2.out.2; omega⟩
    have s4 : ¬ (S2.size + 1 > 9223372036854775807) := by have := HS2.out.2; omega
    obtain ⟨S4, hS4⟩ : ∃ S4, S3 ++ (⟨#[97]⟩ : ByteArray) = S4 := ⟨_, rfl⟩
    have s5 : ¬ (S3.size + 1 > 9223372036854775807) := by have := HS3.out.2; omega
    have HS4 : Hid (tcS o x = S4 ∧ S4.size ≤ 310) := ⟨by unfold tcS; rw [HS1.out.1, hS2, hS3, hS4], by rw [← hS4, app_size, e1y]; have := HS3.out.2; omega⟩
    obtain ⟨S5, hS5⟩ : ∃ S5, PS ++ (⟨#[47]⟩ : ByteArray) = S5 := ⟨_, rfl⟩
    have s6 : ¬ (PS.size + 1 > 9223372036854775807) := by have := HPS.out.2; omega
    obtain ⟨O3, hO3⟩ : ∃ O, paO S4 = O := ⟨_, rfl⟩
    obtain ⟨Y, hY⟩ : ∃ Y, paE S4 = Y := ⟨_, rfl⟩
    have HYb : Hid ((x.toNat ≤ 44 ∨ x.toNat = 47 ∨ (59 ≤ x.toNat ∧ x.toNat ≤ 64) ∨ (91 ≤ x.toNat ∧ x.toNat ≤ 96) ∨ 123 ≤ x.toNat) → Y = 150) := fun hb => by rw [← hY, ← HS4.out.1]; exact tc_bad HRT.out hb
    have HP3 : Hid (∀ W, Env W → Calls Tryd.prog 12 #[.string S4] W fun e w' => e = .returned (.tuple #[.agg #[.string O3.s, .string O3.h, .int .i64 O3.p], .int .i64 Y]) ∧ Below W.heap.size W w') := fun W hW => by
      have h1 := parse_any S4 W hW (by have := HS4.out.2; omega)
      unfold paV ogv at h1
      rw [hO3, hY] at h1
      exact h1
    obtain ⟨O4, hO4⟩ : ∃ O, paO S5 = O := ⟨_, rfl⟩
    have HP4 : Hid (∀ W, Env W → Calls Tryd.prog 12 #[.string S5] W fun e w' => e = .returned (.tuple #[.agg #[.string O4.s, .string O4.h, .int .i64 O4.p], .int .i64 150]) ∧ Below W.heap.size W w') := fun W hW => by
      have h1 := parse_any S5 W hW (by rw [← hS5, app_size, e1z]; have := HPS.out.2; omega)
      have h2 := pa_slash HRT.out
      rw [HPS.out.1, hS5] at h2
      unfold paV ogv at h1
      rw [hO4, h2] at h1
      exact h1
    clear hSZ hO3 hY hO4
    go_wp2_with fail
    have hIW : Below V1.heap.size V1 V1.drew := (Below.refl _ _).drew
    refine wp_region_held_drew (S := (fun V => V.cell? ⟨a, 0, none⟩ = some (.string o.s) ∧ V.cell? ⟨a, 1, none⟩ = some (.string o.h) ∧ V.cell? ⟨a, 2, none⟩ = some (.int .i64 o.p) ∧ V.cell? ⟨b, 0, none⟩ = some (.string o.s) ∧ V.cell? ⟨b, 1, none⟩ = some (.string o.h) ∧ V.cell? ⟨b, 2, none⟩ = some (.int .i64 o.p) ∧ V.cell? ⟨c, 0, none⟩ = some (.string o.s) ∧ V.cell? ⟨c, 1, none⟩ = some (.string o.h) ∧ V.cell? ⟨c, 2, none⟩ = some (.int .i64 o.p))) (by kernel_rfl) (hS7.out _ hIW) (fun hHeld => ?_)
    generalize hWg : World.drew _ = W at hIW hHeld ⊢
    clear hWg
    refine wpAnyH_take (i := 0) (oi := { dst := some 47, op := Op.move (Operand.tmp 11), type := 27, pos := "outright.go:71", after := #[], guard := none }) (v := ?vv21) rfl (by kernel_rfl) (by kernel_rfl) (by kernel_rfl) (fun _ _ _ h => h) (Or.inl ⟨by rfl, ?hy21⟩) (by assumption) ?_
    case hy21 => (intro w hSw; (try dsimp only at hSw); go_simp; all_goals with_reducible rfl)
    try simp only [Act.put, List.setIfInBounds_toArray, List.set_cons_zero, List.set_cons_succ]
    refine wpAnyH_take (i := 1) (oi := { dst := some 48, op := Op.binOp BinOp.neq 27 (Operand.tmp 47) (Operand.const (Value.int IntKind.i64 0)) 27, type := 4, pos := "outright.go:71", after := #[{ on := 0, ground := Ground.data }], guard := none }) (v := ?vv22) rfl (by kernel_rfl) (by kernel_rfl) (by kernel_rfl) (fun _ _ _ h => h) (Or.inl ⟨by rfl, ?hy22⟩) (by assumption) ?_
    case hy22 => (intro w hSw; (try dsimp only at hSw); go_simp; all_goals with_reducible rfl)
    try simp only [Act.put, List.setIfInBounds_toArray, List.set_cons_zero, List.set_cons_succ]
    refine wpAnyH_take (i := 2) (oi := { dst := some 49, op := Op.move (Operand.tmp 48), type := 4, pos := "outright.go:71", after := #[{ on := 1, ground := Ground.data }], guard := none }) (v := ?vv23) rfl (by kernel_rfl) (by kernel_rfl) (by kernel_rfl) (fun _ _ _ h => h) (Or.inl ⟨by rfl, ?hy23⟩) (by assumption) ?_
    case hy23 => (intro w hSw; (try dsimp only at hSw); go_simp; all_goals with_reducible rfl)
    try simp only [Act.put, List.setIfInBounds_toArray, List.set_cons_zero, List.set_cons_succ]
    refine wpAnyH_take (i := 3) (oi := { dst := some 50, op := Op.move (Operand.tmp 13), type := 27, pos := "outright.go:71", after := #[{ on := 2, ground := Ground.guard }], guard := some (2, false) }) (v := ?vv24) rfl (by kernel_rfl) (by kernel_rfl) (by kernel_rfl) (fun _ _ _ h => h) (Or.inl ⟨by rfl, ?hy24⟩) (by assumption) ?_
    case hy24 => (intro w hSw; (try dsimp only at hSw); go_simp; all_goals with_reducible rfl)
    try simp only [Act.put, List.setIfInBounds_toArray, List.set_cons_zero, List.set_cons_succ]
    refine wpAnyH_take (i := 4) (oi := { dst := some 51, op := Op.binOp BinOp.neq 27 (Operand.tmp 50) (Operand.const (Value.int IntKind.i64 0)) 27, type := 4, pos := "outright.go:71", after := #[{ on := 3, ground := Ground.data }, { on := 2, ground := Ground.guard }], guard := some (2, false) }) (v := ?vv25) rfl (by kernel_rfl) (by kernel_rfl) (by kernel_rfl) (fun _ _ _ h => h) (Or.inl ⟨by rfl, ?hy25⟩) (by assumption) ?_
    case hy25 => (intro w hSw; (try dsimp only at hSw); go_simp; all_goals with_reducible rfl)
    try simp only [Act.put, List.setIfInBounds_toArray, List.set_cons_zero, List.set_cons_succ]
    refine wpAnyH_take (i := 5) (oi := { dst := some 52, op := Op.pick (Operand.tmp 49) (Operand.const (Value.bool true)) (Operand.tmp 51), type := 4, pos := "outright.go:71", after := #[{ on := 2, ground := Ground.data }, { on := 4, ground := Ground.data }], guard := none }) (v := ?vv26) rfl (by kernel_rfl) (by kernel_rfl) (by kernel_rfl) (fun _ _ _ h => h) (Or.inl ⟨by rfl, ?hy26⟩) (by assumption) ?_
    case hy26 => (intro w hSw; (try dsimp only at hSw); go_simp; all_goals with_reducible rfl)
    try simp only [Act.put, List.setIfInBounds_toArray, List.set_cons_zero, List.set_cons_succ]
    refine wpAnyH_take (i := 6) (oi := { dst := some 53, op := Op.move (Operand.tmp 52), type := 4, pos := "outright.go:71", after := #[{ on := 5, ground := Ground.data }, { on := 2, ground := Ground.chain }], guard := none }) (v := ?vv27) rfl (by kernel_rfl) (by kernel_rfl) (by kernel_rfl) (fun _ _ _ h => h) (Or.inl ⟨by rfl, ?hy27⟩) (by assumption) ?_
    case hy27 => (intro w hSw; (try dsimp only at hSw); go_simp; all_goals with_reducible rfl)
    try simp only [Act.put, List.setIfInBounds_toArray, List.set_cons_zero, List.set_cons_succ]
    refine wpAnyH_take (i := 7) (oi := { dst := some 54, op := Op.move (Operand.tmp 15), type := 27, pos := "outright.go:71", after := #[{ on := 6, ground := Ground.guard }], guard := some (6, false) }) (v := ?vv28) rfl (by kernel_rfl) (by kernel_rfl) (by kernel_rfl) (fun _ _ _ h => h) (Or.inl ⟨by rfl, ?hy28⟩) (by assumption) ?_
    case hy28 => (intro w hSw; (try dsimp only at hSw); go_simp; all_goals with_reducible rfl)
    try simp only [Act.put, List.setIfInBounds_toArray, List.set_cons_zero, List.set_cons_succ]
    refine wpAnyH_take (i := 8) (oi := { dst := some 55, op := Op.binOp BinOp.neq 27 (Operand.tmp 54) (Operand.const (Value.int IntKind.i64 0)) 27, type := 4, pos := "outright.go:71", after := #[{ on := 7, ground := Ground.data }, { on := 6, ground := Ground.guard }], guard := some (6, false) }) (v := ?vv29) rfl (by kernel_rfl) (by kernel_rfl) (by kernel_rfl) (fun _ _ _ h => h) (Or.inl ⟨by rfl, ?hy29⟩) (by assumption) ?_
    case hy29 => (intro w hSw; (try dsimp only at hSw); go_simp; all_goals with_reducible rfl)
    try simp only [Act.put, List.setIfInBounds_toArray, List.set_cons_zero, List.set_cons_succ]
    refine wpAnyH_take (i := 9) (oi := { dst := some 56, op := Op.pick (Operand.tmp 53) (Operand.const (Value.bool true)) (Operand.tmp 55), type := 4, pos := "outright.go:71", after := #[{ on := 6, ground := Ground.data }, { on := 8, ground := Ground.data }], guard := none }) (v := ?vv30) rfl (by kernel_rfl) (by kernel_rfl) (by kernel_rfl) (fun _ _ _ h => h) (Or.inl ⟨by rfl, ?hy30⟩) (by assumption) ?_
    case hy30 => (intro w hSw; (try dsimp only at hSw); go_simp; all_goals with_reducible rfl)
    try simp only [Act.put, List.setIfInBounds_toArray, List.set_cons_zero, List.set_cons_succ]
    refine wpAnyH_take (i := 10) (oi := { dst := some 57, op := Op.move (Operand.tmp 56), type := 4, pos := "outright.go:71", after := #[{ on := 9, ground := Ground.data }, { on := 6, ground := Ground.chain }], guard := none }) (v := ?vv31) rfl (by kernel_rfl) (by kernel_rfl) (by kernel_rfl) (fun _ _ _ h => h) (Or.inl ⟨by rfl, ?hy31⟩) (by assumption) ?_
    case hy31 => (intro w hSw; (try dsimp only at hSw); go_simp; all_goals with_reducible rfl)
    try simp only [Act.put, List.setIfInBounds_toArray, List.set_cons_zero, List.set_cons_succ]
    refine wpAnyH_take (i := 11) (oi := { dst := some 58, op := Op.load 23 (Operand.tmp 12), type := 23, pos := "outright.go:71", after := #[{ on := 10, ground := Ground.guard }], guard := some (10, false) }) (v := ?vv32) rfl (by kernel_rfl) (by kernel_rfl) (by kernel_rfl) (fun _ _ _ h => h) (Or.inl ⟨by rfl, ?hy32⟩) (by assumption) ?_
    case hy32 => (intro w hSw; (try dsimp only at hSw); go_simp; all_goals with_reducible rfl)
    try simp only [Act.put, List.setIfInBounds_toArray, List.set_cons_zero, List.set_cons_succ]
    refine wpAnyH_take (i := 12) (oi := { dst := some 59, op := Op.load 23 (Operand.tmp 9), type := 23, pos := "outright.go:71", after := #[{ on := 10, ground := Ground.guard }], guard := some (10, false) }) (v := ?vv33) rfl (by kernel_rfl) (by kernel_rfl) (by kernel_rfl) (fun _ _ _ h => h) (Or.inl ⟨by rfl, ?hy33⟩) (by assumption) ?_
    case hy33 => (intro w hSw; (try dsimp only at hSw); go_simp; all_goals with_reducible rfl)
    try simp only [Act.put, List.setIfInBounds_toArray, List.set_cons_zero, List.set_cons_succ]
    refine wpAnyH_take (i := 13) (oi := { dst := some 60, op := Op.binOp BinOp.neq 23 (Operand.tmp 58) (Operand.tmp 59) 23, type := 4, pos := "outright.go:71", after := #[{ on := 11, ground := Ground.data }, { on := 12, ground := Ground.data }, { on := 10, ground := Ground.guard }], guard := some (10, false) }) (v := ?vv34) rfl (by kernel_rfl) (by kernel_rfl) (by kernel_rfl) (fun _ _ _ h => h) (Or.inl ⟨by rfl, ?hy34⟩) (by assumption) ?_
    case hy34 => (intro w hSw; (try dsimp only at hSw); go_simp; all_goals with_reducible rfl)
    try simp only [Act.put, List.setIfInBounds_toArray, List.set_cons_zero, List.set_cons_succ]
    refine wpAnyH_take (i := 14) (oi := { dst := some 61, op := Op.pick (Operand.tmp 57) (Operand.const (Value.bool true)) (Operand.tmp 60), type := 4, pos := "outright.go:71", after := #[{ on := 10, ground := Ground.data }, { on := 13, ground := Ground.data }], guard := none }) (v := ?vv35) rfl (by kernel_rfl) (by kernel_rfl) (by kernel_rfl) (fun _ _ _ h => h) (Or.inl ⟨by rfl, ?hy35⟩) (by assumption) ?_
    case hy35 => (intro w hSw; (try dsimp only at hSw); go_simp; all_goals with_reducible rfl)
    try simp only [Act.put, List.setIfInBounds_toArray, List.set_cons_zero, List.set_cons_succ]
    refine wpAnyH_take (i := 15) (oi := { dst := some 62, op := Op.move (Operand.tmp 61), type := 4, pos := "outright.go:71", after := #[{ on := 14, ground := Ground.data }, { on := 10, ground := Ground.chain }], guard := none }) (v := ?vv36) rfl (by kernel_rfl) (by kernel_rfl) (by kernel_rfl) (fun _ _ _ h => h) (Or.inl ⟨by rfl, ?hy36⟩) (by assumption) ?_
    case hy36 => (intro w hSw; (try dsimp only at hSw); go_simp; all_goals with_reducible rfl)
    try simp only [Act.put, List.setIfInBounds_toArray, List.set_cons_zero, List.set_cons_succ]
    refine wpAnyH_take (i := 16) (oi := { dst := some 63, op := Op.load 23 (Operand.tmp 14), type := 23, pos := "outright.go:71", after := #[{ on := 15, ground := Ground.guard }], guard := some (15, false) }) (v := ?vv37) rfl (by kernel_rfl) (by kernel_rfl) (by kernel_rfl) (fun _ _ _ h => h) (Or.inl ⟨by rfl, ?hy37⟩) (by assumption) ?_
    case hy37 => (intro w hSw; (try dsimp only at hSw); go_simp; all_goals with_reducible rfl)
    try simp only [Act.put, List.setIfInBounds_toArray, List.set_cons_zero, List.set_cons_succ]
    refine wpAnyH_take (i := 17) (oi := { dst := some 64, op := Op.load 23 (Operand.tmp 9), type := 23, pos := "outright.go:71", after := #[{ on := 15, ground := Ground.guard }], guard := some (15, false) }) (v := ?vv38) rfl (by kernel_rfl) (by kernel_rfl) (by kernel_rfl) (fun _ _ _ h => h) (Or.inl ⟨by rfl, ?hy38⟩) (by assumption) ?_
    case hy38 => (intro w hSw; (try dsimp only at hSw); go_simp; all_goals with_reducible rfl)
    try simp only [Act.put, List.setIfInBounds_toArray, List.set_cons_zero, List.set_cons_succ]
    refine wpAnyH_take (i := 18) (oi := { dst := some 65, op := Op.binOp BinOp.neq 23 (Operand.tmp 63) (Operand.tmp 64) 23, type := 4, pos := "outright.go:71", after := #[{ on := 16, ground := Ground.data }, { on := 17, ground := Ground.data }, { on := 15, ground := Ground.guard }], guard := some (15, false) }) (v := ?vv39) rfl (by kernel_rfl) (by kernel_rfl) (by kernel_rfl) (fun _ _ _ h => h) (Or.inl ⟨by rfl, ?hy39⟩) (by assumption) ?_
    case hy39 => (intro w hSw; (try dsimp only at hSw); go_simp; all_goals with_reducible rfl)
    try simp only [Act.put, List.setIfInBounds_toArray, List.set_cons_zero, List.set_cons_succ]
    refine wpAnyH_take (i := 19) (oi := { dst := some 66, op := Op.pick (Operand.tmp 62) (Operand.const (Value.bool true)) (Operand.tmp 65), type := 4, pos := "outright.go:71", after := #[{ on := 15, ground := Ground.data }, { on := 18, ground := Ground.data }], guard := none }) (v := ?vv40) rfl (by kernel_rfl) (by kernel_rfl) (by kernel_rfl) (fun _ _ _ h => h) (Or.inl ⟨by rfl, ?hy40⟩) (by assumption) ?_
    case hy40 => (intro w hSw; (try dsimp only at hSw); go_simp; all_goals with_reducible rfl)
    try simp only [Act.put, List.setIfInBounds_toArray, List.set_cons_zero, List.set_cons_succ]
    refine wpAnyH_take (i := 20) (oi := { dst := some 67, op := Op.move (Operand.tmp 66), type := 4, pos := "outright.go:71", after := #[{ on := 19, ground := Ground.data }, { on := 15, ground := Ground.chain }], guard := none }) (v := ?vv41) rfl (by kernel_rfl) (by kernel_rfl) (by kernel_rfl) (fun _ _ _ h => h) (Or.inl ⟨by rfl, ?hy41⟩) (by assumption) ?_
    case hy41 => (intro w hSw; (try dsimp only at hSw); go_simp; all_goals with_reducible rfl)
    try simp only [Act.put, List.setIfInBounds_toArray, List.set_cons_zero, List.set_cons_succ]
    refine wpAnyH_take (i := 21) (oi := { dst := some 68, op := Op.move (Operand.tmp 10), type := 9, pos := "outright.go:71", after := #[{ on := 20, ground := Ground.guard }], guard := some (20, false) }) (v := ?vv42) rfl (by kernel_rfl) (by kernel_rfl) (by kernel_rfl) (fun _ _ _ h => h) (Or.inl ⟨by rfl, ?hy42⟩) (by assumption) ?_
    case hy42 => (intro w hSw; (try dsimp only at hSw); go_simp; all_goals with_reducible rfl)
    try simp only [Act.put, List.setIfInBounds_toArray, List.set_cons_zero, List.set_cons_succ]
    refine wpAnyH_take (i := 22) (oi := { dst := some 69, op := Op.fieldAddr 23 (Operand.tmp 9) 0, type := 0, pos := "outright.go:71", after := #[{ on := 20, ground := Ground.guard }], guard := some (20, false) }) (v := ?vv43) rfl (by kernel_rfl) (by kernel_rfl) (by kernel_rfl) (fun _ _ _ h => h) (Or.inl ⟨by rfl, ?hy43⟩) (by assumption) ?_
    case hy43 => (intro w hSw; (try dsimp only at hSw); go_simp; all_goals with_reducible rfl)
    try simp only [Act.put, List.setIfInBounds_toArray, List.set_cons_zero, List.set_cons_succ]
    refine wpAnyH_take (i := 23) (oi := { dst := some 70, op := Op.load 9 (Operand.tmp 69), type := 9, pos := "outright.go:71", after := #[{ on := 22, ground := Ground.data }, { on := 20, ground := Ground.guard }], guard := some (20, false) }) (v := ?vv44) rfl (by kernel_rfl) (by kernel_rfl) (by kernel_rfl) (fun _ _ _ h => h) (Or.inl ⟨by rfl, ?hy44⟩) (by assumption) ?_
    case hy44 => (intro w hSw; (try dsimp only at hSw); go_simp; all_goals with_reducible rfl)
    try simp only [Act.put, List.setIfInBounds_toArray, List.set_cons_zero, List.set_cons_succ]
    refine wpAnyH_take (i := 24) (oi := { dst := some 71, op := Op.binOp BinOp.add 9 (Operand.tmp 70) (Operand.const (Value.string { data := #[58, 47, 47] })) 9, type := 9, pos := "outright.go:71", after := #[{ on := 23, ground := Ground.data }, { on := 20, ground := Ground.guard }], guard := some (20, false) }) (v := ?vv45) rfl (by kernel_rfl) (by kernel_rfl) (by kernel_rfl) (fun _ _ _ h => h) (Or.inl ⟨by rfl, ?hy45⟩) (by assumption) ?_
    case hy45 => (intro w hSw; (try dsimp only at hSw); go_simp; all_goals with_reducible rfl)
    try simp only [Act.put, List.setIfInBounds_toArray, List.set_cons_zero, List.set_cons_succ]
    refine wpAnyH_take (i := 25) (oi := { dst := some 72, op := Op.load 23 (Operand.tmp 9), type := 23, pos := "outright.go:71", after := #[{ on := 20, ground := Ground.guard }], guard := some (20, false) }) (v := ?vv46) rfl (by kernel_rfl) (by kernel_rfl) (by kernel_rfl) (fun _ _ _ h => h) (Or.inl ⟨by rfl, ?hy46⟩) (by assumption) ?_
    case hy46 => (intro w hSw; (try dsimp only at hSw); go_simp; all_goals with_reducible rfl)
    try simp only [Act.put, List.setIfInBounds_toArray, List.set_cons_zero, List.set_cons_succ]
    refine wpAnyH_ready (rs := [26]) (by kernel_rfl) (by simp) ?_
    refine AllReadyH.cons (o := { dst := some 73, op := Op.call { callee := Callee.value (Operand.func 13), args := #[Operand.tmp 72, Operand.const (Value.int IntKind.u64 0), Operand.const (Value.bool false)], argTypes := #[23, 24, 4] }, type := 9, pos := "outright.go:71", after := #[{ on := 25, ground := Ground.data }, { on := 20, ground := Ground.chain }, { on := 20, ground := Ground.guard }], guard := some (20, false) }) rfl (fun K hK => ?_) AllReadyH.nil
    go_simp
    refine (HSz.out _).mono ?_
    rintro e' Wx ⟨rfl, bX⟩
    have hWx : Below V1.heap.size V1 Wx := hIW.trans (bX.mono hIW.size)
    clear bX
    go_wp2_with fail
    refine hK.out _ _ (hS7.out _ hWx) (fun hHeld => ?_)
    clear hK K
    try simp only [Act.put, List.setIfInBounds_toArray, List.set_cons_zero, List.set_cons_succ]
    refine wpAnyH_take (i := 27) (oi := { dst := some 74, op := Op.binOp BinOp.add 9 (Operand.tmp 71) (Operand.tmp 73) 9, type := 9, pos := "outright.go:71", after := #[{ on := 24, ground := Ground.data }, { on := 26, ground := Ground.data }, { on := 20, ground := Ground.guard }], guard := some (20, false) }) (v := ?vv47) rfl (by kernel_rfl) (by kernel_rfl) (by kernel_rfl) (fun _ _ _ h => h) (Or.inl ⟨by rfl, ?hy47⟩) (by assumption) ?_
    case hy47 => (intro w hSw; (try dsimp only at hSw); go_simp; all_goals with_reducible rfl)
    try simp only [Act.put, List.setIfInBounds_toArray, List.set_cons_zero, List.set_cons_succ]
    refine wpAnyH_take (i := 28) (oi := { dst := some 75, op := Op.binOp BinOp.neq 9 (Operand.tmp 68) (Operand.tmp 74) 9, type := 4, pos := "outright.go:71", after := #[{ on := 21, ground := Ground.data }, { on := 27, ground := Ground.data }, { on := 20, ground := Ground.guard }], guard := some (20, false) }) (v := ?vv48) rfl (by kernel_rfl) (by kernel_rfl) (by kernel_rfl) (fun _ _ _ h => h) (Or.inl ⟨by rfl, ?hy48⟩) (by assumption) ?_
    case hy48 => (intro w hSw; (try dsimp only at hSw); go_simp; all_goals with_reducible rfl)
    try simp only [Act.put, List.setIfInBounds_toArray, List.set_cons_zero, List.set_cons_succ]
    refine wpAnyH_take (i := 29) (oi := { dst := some 76, op := Op.pick (Operand.tmp 67) (Operand.const (Value.bool true)) (Operand.tmp 75), type := 4, pos := "outright.go:71", after := #[{ on := 20, ground := Ground.data }, { on := 28, ground := Ground.data }], guard := none }) (v := ?vv49) rfl (by kernel_rfl) (by kernel_rfl) (by kernel_rfl) (fun _ _ _ h => h) (Or.inl ⟨by rfl, ?hy49⟩) (by assumption) ?_
    case hy49 => (intro w hSw; (try dsimp only at hSw); go_simp; all_goals with_reducible rfl)
    try simp only [Act.put, List.setIfInBounds_toArray, List.set_cons_zero, List.set_cons_succ]
    refine wpAnyH_done (by kernel_rfl) ?_ _
    obtain ⟨hA', hB', hC'⟩ : OB Wx a o ∧ OB Wx b o ∧ OB Wx c o := ⟨HZa.out.below hWx, HZb.out.below hWx, HZc.out.below hWx⟩
    have HBW2 : Hid (Below w.heap.size w Wx) := HZB.out.trans (hWx.mono HZB.out.size)
    obtain ⟨d0, d1, d2, _, _, _⟩ := hA'.cells
    obtain ⟨C, hC⟩ : ∃ C, Wx.alloc (.cells #[.int .u8 (x.toNat : Int)] 5) = C := ⟨_, rfl⟩
    have hC0 := hC
    have HBd : Hid (Below w.heap.size w C) := by rw [← hC]; exact HBW2.out.trans ((bel1 _ _).mono HBW2.out.size)
    have hcv : Sem.run Tryd.prog (convert 33 9 (.slice (some ⟨Wx.heap.size, 0, none⟩) 1 1)) C = .ok (.string ⟨#[x]⟩) C := by
      rw [← hC]
      exact run_convert_bytes_back (P := Tryd.prog) _ 33 9 5 ⟨Wx.heap.size, 0, none⟩ 1 [x] Tryd.underlying33 Tryd.underlying5 Tryd.underlying9 (fun j hj => by
        have hj0 : j = 0 := by simpa using hj
        subst hj0
        rw [Addr.add_lit, cell_blk (by rw [heap_al, if_pos rfl])]
        rfl)
    clear hA' hB' hC' hHeld hWx hC0
    rcases hx11 with hcl | hcl | hcl | hcl | hcl | hcl | hcl | hcl | hcl | hcl | hcl
    · have g48 : ¬ (x.toNat : Int) ≥ 48 := by omega
      have l57 : (x.toNat : Int) ≤ 57 := by omega
      have g97 : ¬ (x.toNat : Int) ≥ 97 := by omega
      have l122 : (x.toNat : Int) ≤ 122 := by omega
      have g65 : ¬ (x.toNat : Int) ≥ 65 := by omega
      have l90 : (x.toNat : Int) ≤ 90 := by omega
      have q45 : ((x.toNat : Int) == 45) = false := beq_eq_false_iff_ne.2 (by omega)
      have q46 : ((x.toNat : Int) == 46) = false := beq_eq_false_iff_ne.2 (by omega)
      have q58 : ((x.toNat : Int) == 58) = false := beq_eq_false_iff_ne.2 (by omega)
      have HY150 : Hid (Y = 150) := HYb.out (by omega)
      have hY150 := HY150.out
      subst hY150
      clear hcl
      go_wp2_with fail
      go_at_call 12
      refine (HP3.out _ (HE.out.below HBd.out)).mono ?_
      rintro e' D1 ⟨rfl, bX⟩
      have HBe : Hid (Below w.heap.size w (D1.alloc (.cells #[.string O3.s, .string O3.h, .int .i64 O3.p] 23))) := (HBd.out.trans (bX.mono HBd.out.size)).trans ((bel1 _ _).mono (HBd.out.trans (bX.mono HBd.out.size)).size)
      clear bX
      go_wp2_with fail
      go_at_call 12
      refine (HP4.out _ (HE.out.below HBe.out)).mono ?_
      rintro e' D2 ⟨rfl, bX⟩
      have HBf : Hid (Below w.heap.size w (D2.alloc (.cells #[.string O4.s, .string O4.h, .int .i64 O4.p] 23))) := (HBe.out.trans (bX.mono HBe.out.size)).trans ((bel1 _ _).mono (HBe.out.trans (bX.mono HBe.out.size)).size)
      clear bX
      go_wp2_with fail
      go_ret
      exact ⟨by first | rfl | simp, HBf.out⟩
    · have g48 : ¬ (x.toNat : Int) ≥ 48 := by omega
      have l57 : (x.toNat : Int) ≤ 57 := by omega
      have g97 : ¬ (x.toNat : Int) ≥ 97 := by omega
      have l122 : (x.toNat : Int) ≤ 122 := by omega
      have g65 : ¬ (x.toNat : Int) ≥ 65 := by omega
      have l90 : (x.toNat : Int) ≤ 90 := by omega
      have q45 : ((x.toNat : Int) == 45) = true := by rw [hcl]; rfl
      have q46 : ((x.toNat : Int) == 46) = false := beq_eq_false_iff_ne.2 (by omega)
      have q58 : ((x.toNat : Int) == 58) = false := beq_eq_false_iff_ne.2 (by omega)
      clear hcl
      go_wp2_with fail
      go_at_call 12
      refine (HP3.out _ (HE.out.below HBd.out)).mono ?_
      rintro e' D1 ⟨rfl, bX⟩
      have HBe : Hid (Below w.heap.size w (D1.alloc (.cells #[.string O3.s, .string O3.h, .int .i64 O3.p] 23))) := (HBd.out.trans (bX.mono HBd.out.size)).trans ((bel1 _ _).mono (HBd.out.trans (bX.mono HBd.out.size)).size)
      clear bX
      go_wp2_with fail
      go_at_call 12
      refine (HP4.out _ (HE.out.below HBe.out)).mono ?_
      rintro e' D2 ⟨rfl, bX⟩
      have HBf : Hid (Below w.heap.size w (D2.alloc (.cells #[.string O4.s, .string O4.h, .int .i64 O4.p] 23))) := (HBe.out.trans (bX.mono HBe.out.size)).trans ((bel1 _ _).mono (HBe.out.trans (bX.mono HBe.out.size)).size)
      clear bX
      go_wp2_with fail
      go_ret
      exact ⟨by first | rfl | simp, HBf.out⟩
    · have g48 : ¬ (x.toNat : Int) ≥ 48 := by omega
      have l57 : (x.toNat : Int) ≤ 57 := by omega
      have g97 : ¬ (x.toNat : Int) ≥ 97 := by omega
      have l122 : (x.toNat : Int) ≤ 122 := by omega
      have g65 : ¬ (x.toNat : Int) ≥ 65 := by omega
      have l90 : (x.toNat : Int) ≤ 90 := by omega
      have q45 : ((x.toNat : Int) == 45) = false := beq_eq_false_iff_ne.2 (by omega)
      have q46 : ((x.toNat : Int) == 46) = true := by rw [hcl]; rfl
      have q58 : ((x.toNat : Int) == 58) = false := beq_eq_false_iff_ne.2 (by omega)
      clear hcl
      go_wp2_with fail
      go_at_call 12
      refine (HP3.out _ (HE.out.below HBd.out)).mono ?_
      rintro e' D1 ⟨rfl, bX⟩
      have HBe : Hid (Below w.heap.size w (D1.alloc (.cells #[.string O3.s, .string O3.h, .int .i64 O3.p] 23))) := (HBd.out.trans (bX.mono HBd.out.size)).trans ((bel1 _ _).mono (HBd.out.trans (bX.mono HBd.out.size)).size)
      clear bX
      go_wp2_with fail
      go_at_call 12
      refine (HP4.out _ (HE.out.below HBe.out)).mono ?_
      rintro e' D2 ⟨rfl, bX⟩
      have HBf : Hid (Below w.heap.size w (D2.alloc (.cells #[.string O4.s, .string O4.h, .int .i64 O4.p] 23))) := (HBe.out.trans (bX.mono HBe.out.size)).trans ((bel1 _ _).mono (HBe.out.trans (bX.mono HBe.out.size)).size)
      clear bX
      go_wp2_with fail
      go_ret
      exact ⟨by first | rfl | simp, HBf.out⟩
    · have g48 : ¬ (x.toNat : Int) ≥ 48 := by omega
      have l57 : (x.toNat : Int) ≤ 57 := by omega
      have g97 : ¬ (x.toNat : Int) ≥ 97 := by omega
      have l122 : (x.toNat : Int) ≤ 122 := by omega
      have g65 : ¬ (x.toNat : Int) ≥ 65 := by omega
      have l90 : (x.toNat : Int) ≤ 90 := by omega
      have q45 : ((x.toNat : Int) == 45) = false := beq_eq_false_iff_ne.2 (by omega)
      have q46 : ((x.toNat : Int) == 46) = false := beq_eq_false_iff_ne.2 (by omega)
      have q58 : ((x.toNat : Int) == 58) = false := beq_eq_false_iff_ne.2 (by omega)
      have HY150 : Hid (Y = 150) := HYb.out (by omega)
      have hY150 := HY150.out
      subst hY150
      clear hcl
      go_wp2_with fail
      go_at_call 12
      refine (HP3.out _ (HE.out.below HBd.out)).mono ?_
      rintro e' D1 ⟨rfl, bX⟩
      have HBe : Hid (Below w.heap.size w (D1.alloc (.cells #[.string O3.s, .string O3.h, .int .i64 O3.p] 23))) := (HBd.out.trans (bX.mono HBd.out.size)).trans ((bel1 _ _).mono (HBd.out.trans (bX.mono HBd.out.size)).size)
      clear bX
      go_wp2_with fail
      go_at_call 12
      refine (HP4.out _ (HE.out.below HBe.out)).mono ?_
      rintro e' D2 ⟨rfl, bX⟩
      have HBf : Hid (Below w.heap.size w (D2.alloc (.cells #[.string O4.s, .string O4.h, .int .i64 O4.p] 23))) := (HBe.out.trans (bX.mono HBe.out.size)).trans ((bel1 _ _).mono (HBe.out.trans (bX.mono HBe.out.size)).size)
      clear bX
      go_wp2_with fail
      go_ret
      exact ⟨by first | rfl | simp, HBf.out⟩
    · have g48 : (x.toNat : Int) ≥ 48 := by omega
      have l57 : (x.toNat : Int) ≤ 57 := by omega
      have g97 : ¬ (x.toNat : Int) ≥ 97 := by omega
      have l122 : (x.toNat : Int) ≤ 122 := by omega
      have g65 : ¬ (x.toNat : Int) ≥ 65 := by omega
      have l90 : (x.toNat : Int) ≤ 90 := by omega
      have q45 : ((x.toNat : Int) == 45) = false := beq_eq_false_iff_ne.2 (by omega)
      have q46 : ((x.toNat : Int) == 46) = false := beq_eq_false_iff_ne.2 (by omega)
      have q58 : ((x.toNat : Int) == 58) = false := beq_eq_false_iff_ne.2 (by omega)
      clear hcl
      go_wp2_with fail
      go_at_call 12
      refine (HP3.out _ (HE.out.below HBd.out)).mono ?_
      rintro e' D1 ⟨rfl, bX⟩
      have HBe : Hid (Below w.heap.size w (D1.alloc (.cells #[.string O3.s, .string O3.h, .int .i64 O3.p] 23))) := (HBd.out.trans (bX.mono HBd.out.size)).trans ((bel1 _ _).mono (HBd.out.trans (bX.mono HBd.out.size)).size)
      clear bX
      go_wp2_with fail
      go_at_call 12
      refine (HP4.out _ (HE.out.below HBe.out)).mono ?_
      rintro e' D2 ⟨rfl, bX⟩
      have HBf : Hid (Below w.heap.size w (D2.alloc (.cells #[.string O4.s, .string O4.h, .int .i64 O4.p] 23))) := (HBe.out.trans (bX.mono HBe.out.size)).trans ((bel1 _ _).mono (HBe.out.trans (bX.mono HBe.out.size)).size)
      clear bX
      go_wp2_with fail
      go_ret
      exact ⟨by first | rfl | simp, HBf.out⟩
    · have g48 : (x.toNat : Int) ≥ 48 := by omega
      have l57 : ¬ (x.toNat : Int) ≤ 57 := by omega
      have g97 : ¬ (x.toNat : Int) ≥ 97 := by omega
      have l122 : (x.toNat : Int) ≤ 122 := by omega
      have g65 : ¬ (x.toNat : Int) ≥ 65 := by omega
      have l90 : (x.toNat : Int) ≤ 90 := by omega
      have q45 : ((x.toNat : Int) == 45) = false := beq_eq_false_iff_ne.2 (by omega)
      have q46 : ((x.toNat : Int) == 46) = false := beq_eq_false_iff_ne.2 (by omega)
      have q58 : ((x.toNat : Int) == 58) = true := by rw [hcl]; rfl
      clear hcl
      go_wp2_with fail
      go_at_call 12
      refine (HP3.out _ (HE.out.below HBd.out)).mono ?_
      rintro e' D1 ⟨rfl, bX⟩
      have HBe : Hid (Below w.heap.size w (D1.alloc (.cells #[.string O3.s, .string O3.h, .int .i64 O3.p] 23))) := (HBd.out.trans (bX.mono HBd.out.size)).trans ((bel1 _ _).mono (HBd.out.trans (bX.mono HBd.out.size)).size)
      clear bX
      go_wp2_with fail
      go_at_call 12
      refine (HP4.out _ (HE.out.below HBe.out)).mono ?_
      rintro e' D2 ⟨rfl, bX⟩
      have HBf : Hid (Below w.heap.size w (D2.alloc (.cells #[.string O4.s, .string O4.h, .int .i64 O4.p] 23))) := (HBe.out.trans (bX.mono HBe.out.size)).trans ((bel1 _ _).mono (HBe.out.trans (bX.mono HBe.out.size)).size)
      clear bX
      go_wp2_with fail
      go_ret
      exact ⟨by first | rfl | simp, HBf.out⟩
    · have g48 : (x.toNat : Int) ≥ 48 := by omega
      have l57 : ¬ (x.toNat : Int) ≤ 57 := by omega
      have g97 : ¬ (x.toNat : Int) ≥ 97 := by omega
      have l122 : (x.toNat : Int) ≤ 122 := by omega
      have g65 : ¬ (x.toNat : Int) ≥ 65 := by omega
      have l90 : (x.toNat : Int) ≤ 90 := by omega
      have q45 : ((x.toNat : Int) == 45) = false := beq_eq_false_iff_ne.2 (by omega)
      have q46 : ((x.toNat : Int) == 46) = false := beq_eq_false_iff_ne.2 (by omega)
      have q58 : ((x.toNat : Int) == 58) = false := beq_eq_false_iff_ne.2 (by omega)
      have HY150 : Hid (Y = 150) := HYb.out (by omega)
      have hY150 := HY150.out
      subst hY150
      clear hcl
      go_wp2_with fail
      go_at_call 12
      refine (HP3.out _ (HE.out.below HBd.out)).mono ?_
      rintro e' D1 ⟨rfl, bX⟩
      have HBe : Hid (Below w.heap.size w (D1.alloc (.cells #[.string O3.s, .string O3.h, .int .i64 O3.p] 23))) := (HBd.out.trans (bX.mono HBd.out.size)).trans ((bel1 _ _).mono (HBd.out.trans (bX.mono HBd.out.size)).size)
      clear bX
      go_wp2_with fail
      go_at_call 12
      refine (HP4.out _ (HE.out.below HBe.out)).mono ?_
      rintro e' D2 ⟨rfl, bX⟩
      have HBf : Hid (Below w.heap.size w (D2.alloc (.cells #[.string O4.s, .string O4.h, .int .i64 O4.p] 23))) := (HBe.out.trans (bX.mono HBe.out.size)).trans ((bel1 _ _).mono (HBe.out.trans (bX.mono HBe.out.size)).size)
      clear bX
      go_wp2_with fail
      go_ret
      exact ⟨by first | rfl | simp, HBf.out⟩
    · have g48 : (x.toNat : Int) ≥ 48 := by omega
      have l57 : ¬ (x.toNat : Int) ≤ 57 := by omega
      have g97 : ¬ (x.toNat : Int) ≥ 97 := by omega
      have l122 : (x.toNat : Int) ≤ 122 := by omega
      have g65 : (x.toNat : Int) ≥ 65 := by omega
      have l90 : (x.toNat : Int) ≤ 90 := by omega
      have q45 : ((x.toNat : Int) == 45) = false := beq_eq_false_iff_ne.2 (by omega)
      have q46 : ((x.toNat : Int) == 46) = false := beq_eq_false_iff_ne.2 (by omega)
      have q58 : ((x.toNat : Int) == 58) = false := beq_eq_false_iff_ne.2 (by omega)
      clear hcl
      go_wp2_with fail
      go_at_call 12
      refine (HP3.out _ (HE.out.below HBd.out)).mono ?_
      rintro e' D1 ⟨rfl, bX⟩
      have HBe : Hid (Below w.heap.size w (D1.alloc (.cells #[.string O3.s, .string O3.h, .int .i64 O3.p] 23))) := (HBd.out.trans (bX.mono HBd.out.size)).trans ((bel1 _ _).mono (HBd.out.trans (bX.mono HBd.out.size)).size)
      clear bX
      go_wp2_with fail
      go_at_call 12
      refine (HP4.out _ (HE.out.below HBe.out)).mono ?_
      rintro e' D2 ⟨rfl, bX⟩
      have HBf : Hid (Below w.heap.size w (D2.alloc (.cells #[.string O4.s, .string O4.h, .int .i64 O4.p] 23))) := (HBe.out.trans (bX.mono HBe.out.size)).trans ((bel1 _ _).mono (HBe.out.trans (bX.mono HBe.out.size)).size)
      clear bX
      go_wp2_with fail
      go_ret
      exact ⟨by first | rfl | simp, HBf.out⟩
    · have g48 : (x.toNat : Int) ≥ 48 := by omega
      have l57 : ¬ (x.toNat : Int) ≤ 57 := by omega
      have g97 : ¬ (x.toNat : Int) ≥ 97 := by omega
      have l122 : (x.toNat : Int) ≤ 122 := by omega
      have g65 : (x.toNat : Int) ≥ 65 := by omega
      have l90 : ¬ (x.toNat : Int) ≤ 90 := by omega
      have q45 : ((x.toNat : Int) == 45) = false := beq_eq_false_iff_ne.2 (by omega)
      have q46 : ((x.toNat : Int) == 46) = false := beq_eq_false_iff_ne.2 (by omega)
      have q58 : ((x.toNat : Int) == 58) = false := beq_eq_false_iff_ne.2 (by omega)
      have HY150 : Hid (Y = 150) := HYb.out (by omega)
      have hY150 := HY150.out
      subst hY150
      clear hcl
      go_wp2_with fail
      go_at_call 12
      refine (HP3.out _ (HE.out.below HBd.out)).mono ?_
      rintro e' D1 ⟨rfl, bX⟩
      have HBe : Hid (Below w.heap.size w (D1.alloc (.cells #[.string O3.s, .string O3.h, .int .i64 O3.p] 23))) := (HBd.out.trans (bX.mono HBd.out.size)).trans ((bel1 _ _).mono (HBd.out.trans (bX.mono HBd.out.size)).size)
      clear bX
      go_wp2_with fail
      go_at_call 12
      refine (HP4.out _ (HE.out.below HBe.out)).mono ?_
      rintro e' D2 ⟨rfl, bX⟩
      have HBf : Hid (Below w.heap.size w (D2.alloc (.cells #[.string O4.s, .string O4.h, .int .i64 O4.p] 23))) := (HBe.out.trans (bX.mono HBe.out.size)).trans ((bel1 _ _).mono (HBe.out.trans (bX.mono HBe.out.size)).size)
      clear bX
      go_wp2_with fail
      go_ret
      exact ⟨by first | rfl | simp, HBf.out⟩
    · have g48 : (x.toNat : Int) ≥ 48 := by omega
      have l57 : ¬ (x.toNat : Int) ≤ 57 := by omega
      have g97 : (x.toNat : Int) ≥ 97 := by omega
      have l122 : (x.toNat : Int) ≤ 122 := by omega
      have g65 : (x.toNat : Int) ≥ 65 := by omega
      have l90 : ¬ (x.toNat : Int) ≤ 90 := by omega
      have q45 : ((x.toNat : Int) == 45) = false := beq_eq_false_iff_ne.2 (by omega)
      have q46 : ((x.toNat : Int) == 46) = false := beq_eq_false_iff_ne.2 (by omega)
      have q58 : ((x.toNat : Int) == 58) = false := beq_eq_false_iff_ne.2 (by omega)
      clear hcl
      go_wp2_with fail
      go_at_call 12
      refine (HP3.out _ (HE.out.below HBd.out)).mono ?_
      rintro e' D1 ⟨rfl, bX⟩
      have HBe : Hid (Below w.heap.size w (D1.alloc (.cells #[.string O3.s, .string O3.h, .int .i64 O3.p] 23))) := (HBd.out.trans (bX.mono HBd.out.size)).trans ((bel1 _ _).mono (HBd.out.trans (bX.mono HBd.out.size)).size)
      clear bX
      go_wp2_with fail
      go_at_call 12
      refine (HP4.out _ (HE.out.below HBe.out)).mono ?_
      rintro e' D2 ⟨rfl, bX⟩
      have HBf : Hid (Below w.heap.size w (D2.alloc (.cells #[.string O4.s, .string O4.h, .int .i64 O4.p] 23))) := (HBe.out.trans (bX.mono HBe.out.size)).trans ((bel1 _ _).mono (HBe.out.trans (bX.mono HBe.out.size)).size)
      clear bX
      go_wp2_with fail
      go_ret
      exact ⟨by first | rfl | simp, HBf.out⟩
    · have g48 : (x.toNat : Int) ≥ 48 := by omega
      have l57 : ¬ (x.toNat : Int) ≤ 57 := by omega
      have g97 : (x.toNat : Int) ≥ 97 := by omega
      have l122 : ¬ (x.toNat : Int) ≤ 122 := by omega
      have g65 : (x.toNat : Int) ≥ 65 := by omega
      have l90 : ¬ (x.toNat : Int) ≤ 90 := by omega
      have q45 : ((x.toNat : Int) == 45) = false := beq_eq_false_iff_ne.2 (by omega)
      have q46 : ((x.toNat : Int) == 46) = false := beq_eq_false_iff_ne.2 (by omega)
      have q58 : ((x.toNat : Int) == 58) = false := beq_eq_false_iff_ne.2 (by omega)
      have HY150 : Hid (Y = 150) := HYb.out (by omega)
      have hY150 := HY150.out
      subst hY150
      clear hcl
      go_wp2_with fail
      go_at_call 12
      refine (HP3.out _ (HE.out.below HBd.out)).mono ?_
      rintro e' D1 ⟨rfl, bX⟩
      have HBe : Hid (Below w.heap.size w (D1.alloc (.cells #[.string O3.s, .string O3.h, .int .i64 O3.p] 23))) := (HBd.out.trans (bX.mono HBd.out.size)).trans ((bel1 _ _).mono (HBd.out.trans (bX.mono HBd.out.size)).size)
      clear bX
      go_wp2_with fail
      go_at_call 12
      refine (HP4.out _ (HE.out.below HBe.out)).mono ?_
      rintro e' D2 ⟨rfl, bX⟩
      have HBf : Hid (Below w.heap.size w (D2.alloc (.cells #[.string O4.s, .string O4.h, .int .i64 O4.p] 23))) := (HBe.out.trans (bX.mono HBe.out.size)).trans ((bel1 _ _).mono (HBe.out.trans (bX.mono HBe.out.size)).size)
      clear bX
      go_wp2_with fail
      go_ret
      exact ⟨by first | rfl | simp, HBf.out⟩
end Go.Proofs.YtbifmikndpeafaaDoor
