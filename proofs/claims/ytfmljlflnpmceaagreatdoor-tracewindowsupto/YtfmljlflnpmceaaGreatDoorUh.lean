/- TraceWindows: its talk. -/
import Derived.Test.YtfmljlflnpmceaaGreatDoorVa
import Derived.Test.YtfmljlflnpmceaaGreatDoorVu4
namespace Go.Proofs.YtfmljlflnpmceaaGreatDoor
open Go.RowKit
set_option linter.unusedVariables false
set_option linter.unusedSimpArgs false
theorem low_nat (x : Int) (p : Nat) (hp : p ≤ 62) : ∃ n : Nat, bits .and .i64 x ((2 ^ p - 1 : Nat) : Int) = (n : Int) ∧ n < 2 ^ p := by
  have hpos : 0 < 2 ^ p := Nat.two_pow_pos p
  have h1 : 0 ≤ x % ((2 ^ p : Nat) : Int) := Int.emod_nonneg _ (by omega)
  have h2 : x % ((2 ^ p : Nat) : Int) < ((2 ^ p : Nat) : Int) := Int.emod_lt_of_pos _ (by omega)
  exact ⟨(x % ((2 ^ p : Nat) : Int)).toNat, by rw [and_any x p hp]; omega, by omega⟩
theorem tkL_snoc (l : List ByteArray) (d : ByteArray) : tkL l ++ [daE d] = tkL (l ++ [d]) := by unfold tkL; simp
theorem sumD_snoc (l : List ByteArray) (d : ByteArray) : sumD (l ++ [d]) = sumD l + d.size := by unfold sumD; simp
/-- behind the last box -/
structure Wm (w V : World) (q7 : Nat) (d7 : ByteArray) : Prop where
  bel : Below w.heap.size w V
  g7 : V.heap[q7]? = some (.cells (fbx 0 d7 0) 31 (0, 0))
theorem Wm.below {w V V' : World} {q7 : Nat} {d7 : ByteArray} (h : Wm w V q7 d7) (hb : Below V.heap.size V V') : Wm w V' q7 d7 := ⟨h.bel.trans (hb.mono h.bel.size), (hb.block _ (heap_lt h.g7)).trans h.g7⟩
set_option maxRecDepth 100000 in
set_option maxHeartbeats 4000000 in
/-- a frame without anything against itself -/
theorem same0 (V : World) : Calls Tryz.prog 18 #[.agg #[.int .i64 0, .int .i64 0, .int .i64 1, .string ⟨#[]⟩, .int .i64 0, .int .i64 0, .bool false, .int .i64 0, .int .i64 0, .int .i64 0, .slice none 0 0], .agg #[.int .i64 0, .int .i64 0, .int .i64 1, .string ⟨#[]⟩, .int .i64 0, .int .i64 0, .bool false, .int .i64 0, .int .i64 0, .int .i64 0, .slice none 0 0]] V fun r w' => r = .returned (.bool true) ∧ Below V.heap.size V w' := by
  have HB : Hid (Below V.heap.size V ((V.alloc (.cells #[.int .i64 0, .int .i64 0, .int .i64 1, .string ⟨#[]⟩, .int .i64 0, .int .i64 0, .bool false, .int .i64 0, .int .i64 0, .int .i64 0, .slice none 0 0] 31)).alloc (.cells #[.int .i64 0, .int .i64 0, .int .i64 1, .string ⟨#[]⟩, .int .i64 0, .int .i64 0, .bool false, .int .i64 0, .int .i64 0, .int .i64 0, .slice none 0 0] 31))) := bel2 _ _ _
  have HC : Hid (((V.alloc (.cells #[.int .i64 0, .int .i64 0, .int .i64 1, .string ⟨#[]⟩, .int .i64 0, .int .i64 0, .bool false, .int .i64 0, .int .i64 0, .int .i64 0, .slice none 0 0] 31)).alloc (.cells #[.int .i64 0, .int .i64 0, .int .i64 1, .string ⟨#[]⟩, .int .i64 0, .int .i64 0, .bool false, .int .i64 0, .int .i64 0, .int .i64 0, .slice none 0 0] 31)).cell? ⟨V.heap.size, 10, none⟩ = some (.slice none 0 0)) := cell_blk (b := V.heap.size) (c := #[.int .i64 0, .int .i64 0, .int .i64 1, .string ⟨#[]⟩, .int .i64 0, .int .i64 0, .bool false, .int .i64 0, .int .i64 0, .int .i64 0, .slice none 0 0]) (t := 31) (fz := (0, 0)) (by rw [heap_al, if_neg (by simp), heap_al, if_pos rfl]) 10
  go_enter Tryz.func18, Tryz.ntmps18
  go_wp2_with fail
  go_loopw [5] (fun iv wr => iv = .int .i64 0 ∧ Below V.heap.size V wr ∧ wr.cell? ⟨V.heap.size, 10, none⟩ = some (.slice none 0 0)) (fun _ _ => 0)
  case atStart => exact ⟨rfl, HB.out, HC.out⟩
  case round =>
    obtain ⟨rfl, hB, hc⟩ := hrel
    have HB2 := hid hB
    clear hB HB
    go_wp2_with fail
    go_ret
    exact ⟨rfl, HB2.out⟩
set_option maxRecDepth 100000 in
set_option maxHeartbeats 40000000 in
theorem windows_any (a0 a1 a2 : Int) (w : World) (h0 : Std w) (hK : Fm.Kinds w) (hw2 : 2 ≤ w.heap.size) :
    Calls Tryz.prog 6 #[.int .i64 a0, .int .i64 a1, .int .i64 a2] w fun r w' => r = .returned (.bool true) ∧ Below w.heap.size w w' := by
  have HF : Hid (∀ V, Below w.heap.size w V → Calls Tryz.prog 11 #[] V fun r w' => r = .returned (.bool true) ∧ Below V.heap.size V w') := fun V hV => first_any V (h0.below hV) (hK.of_eq (hV.block 1 (by omega))) (Nat.le_trans hw2 hV.size)
  have HCk : Hid (∀ (c : Bool) (ys : List Ec) (z : Value) (V : World) (q : Int × Int), Below w.heap.size w V → In EE V z ys → (∀ y ∈ ys, EOk V y.e y.p) → ys.length ≤ 1073741824 → checkS (ys.map (·.e)) c = q → Calls Tryz.prog 9 #[z, .bool c] V fun r w' => r = .returned (.tuple #[.int .i64 q.1, .int .i64 q.2]) ∧ Below V.heap.size V w') := fun c ys z V q hV hI hE hn hq => by
    have := check_any ys z c V hI hE (h0.below hV) (hK.of_eq (hV.block 1 (by omega))) (Nat.le_trans hw2 hV.size) (by omega)
    rw [hq] at this
    exact this
  have HLC : Hid (∀ (c : Bool) (L : List Et) (z : Value) (V : World) (q : Int × Int), Below w.heap.size w V → Lo w V z L → NoP L → L.length ≤ 1073741824 → checkS L c = q → Calls Tryz.prog 9 #[z, .bool c] V fun r w' => r = .returned (.tuple #[.int .i64 q.1, .int .i64 q.2]) ∧ Below V.heap.size V w') := fun c L z V q hV hI hE hn hq => lo_check w w V z L hI hE hn (h0.below hV) (hK.of_eq (hV.block 1 (by omega))) (Nat.le_trans hw2 hV.size) c q hq
  obtain ⟨n, hn, hnl⟩ := low_nat a0 16 (by decide)
  obtain ⟨pd, hpd, hpl⟩ := low_nat a1 8 (by decide)
  obtain ⟨g0, hg0, hgl⟩ := low_nat a2 14 (by decide)
  have hn' : bits .and .i64 a0 65535 = (n : Int) := hn
  have hpd' : bits .and .i64 a1 255 = (pd : Int) := hpd
  have hg0' : bits .and .i64 a2 16383 = (g0 : Int) := hg0
  have hgv : wrap64 (1 + (g0 : Int)) = ((g0 + 1 : Nat) : Int) := by unfold wrap64; omega
  obtain ⟨gv, hgv1⟩ : ∃ g, g0 + 1 = g := ⟨_, rfl⟩
  rw [hgv1] at hgv
  have HB : Hid (n ≤ 65535 ∧ pd ≤ 255 ∧ 1 ≤ gv ∧ gv ≤ 16384) := ⟨by omega, by omega, by omega, by omega⟩
  clear hn hpd hg0 hnl hpl hgl hgv1 h0 hK hw2
  -- the talk's beginning
  obtain ⟨W1, hW1⟩ : ∃ V, w.alloc (.cells #[.bool true, .int .i64 4, .int .i64 0, .int .i64 0, .string ⟨#[]⟩, .int .i64 0, .int .i64 0, .bool false, .int .i64 0, .int .i64 0, .int .i64 0, .slice none 0 0, .bool false, .int .i64 4, .int .i64 0, .int .i64 0, .string ⟨#[]⟩, .int .i64 0, .int .i64 0, .bool false, .int .i64 0, .int .i64 0, .int .i64 0, .slice none 0 0, .bool true, .int .i64 4, .int .i64 1, .int .i64 0, .string ⟨#[]⟩, .int .i64 0, .int .i64 0, .bool false, .int .i64 0, .int .i64 0, .int .i64 0, .slice none 0 0, .bool false, .int .i64 4, .int .i64 1, .int .i64 0, .string ⟨#[]⟩, .int .i64 0, .int .i64 0, .bool false, .int .i64 0, .int .i64 0, .int .i64 0, .slice none 0 0] 33) = V := ⟨_, rfl⟩
  obtain ⟨q, hq⟩ : ∃ q, w.heap.size = q := ⟨_, rfl⟩
  have b1 : Below w.heap.size w W1 := by rw [← hW1]; exact bel1 _ _
  have r1 : R EE W1 (.slice (some ⟨q, 0, none⟩) 4 4) opE := by rw [← hW1, ← hq]; exact opening_R w
  obtain ⟨b, hb⟩ : ∃ q, W1.heap.size = q := ⟨_, rfl⟩
  obtain ⟨V1, hV1⟩ : ∃ V, W1.alloc (.cells #[.slice (some ⟨q, 0, none⟩) 4 4, .int .i64 3, .int .i64 2] 46) = V := ⟨_, rfl⟩
  have b2 : Below W1.heap.size W1 V1 := by rw [← hV1]; exact bel1 _ _
  have t1 : Tk w V1 b (.slice (some ⟨q, 0, none⟩) 4 4) opL 3 2 := ⟨by rw [← hV1, ← hb, heap_al, if_pos rfl], r1.below b2, fun k hk => by
    simp [Value.ownBlock] at hk
    omega, by rw [← hb]; exact b1.size, b1.trans (b2.mono b1.size)⟩
  have HO : Hid (Calls Tryz.prog 15 #[] w fun r w' => r = .returned (.slice (some ⟨q, 0, none⟩) 4 4) ∧ w' = W1) := by
    refine (opening_any w).mono ?_
    rintro r w' ⟨e1, e2⟩
    exact ⟨by rw [e1, hq], by rw [e2, hW1]⟩
  have HH : Hid (Calls Tryz.prog 16 #[.pointer (some ⟨b, 0, none⟩), .bool true, .agg #[.int .i64 1, .int .i64 0, .int .i64 1, .string ⟨#[]⟩, .int .i64 0, .int .i64 0, .bool false, .int .i64 0, .int .i64 0, .int .i64 0, .slice none 0 0], .int .i64 0] V1 fun r w' => r = .returned (.tuple #[]) ∧ ∃ u, Tk w w' b u (tkL []) 3 2) := by
    have := head_any true (frT 1 0 1 ⟨#[]⟩ 0 0) 0 0 (by decide) (by omega) w V1 b _ opL 3 2 t1 (by decide)
    have e : opL ++ hdL true (frT 1 0 1 ⟨#[]⟩ 0 0) 0 = tkL [] := by
      have : hdL true (frT 1 0 1 ⟨#[]⟩ 0 0) 0 = [heE] := by
        rw [← mk_he]
        rfl
      rw [this]
      rfl
    rw [e] at this
    exact this
  have HV1 := hid hV1
  have HBq := hid hb
  clear b1 r1 b2 t1 hW1 hq hV1 hb
  go_enter Tryz.func6, Tryz.ntmps6
  go_wp2_with fail
  go_at_call 15
  refine HO.out.mono ?_
  rintro e V0 ⟨rfl, rfl⟩
  clear HO
  go_upto_region 5 with fail
  rw [HV1.out, HBq.out]
  clear HV1 HBq
  go_wp2_with fail
  go_at_call 16
  refine HH.out.mono ?_
  rintro e V2 ⟨rfl, u2, h2⟩
  have HT2 : Hid (∃ u, Tk w V2 b u (tkL []) 3 2) := ⟨u2, h2⟩
  clear h2 HH
  go_wp2_with fail
  go_loopw [8] (fun lv wr => ∃ left : Nat, left ≤ n ∧ lv = .int .i64 (left : Int) ∧ Hid (∃ (l : List ByteArray) (u : Value), Tk w wr b u (tkL l) 3 2 ∧ (∀ d ∈ l, d.size ≤ 16384) ∧ sumD l + (left : Int) = (n : Int) ∧ l.length + left ≤ 65535)) (fun lv _ => (intOf lv).toNat)
  case atStart => exact ⟨n, Nat.le_refl _, rfl, [], HT2.out.choose, HT2.out.choose_spec, by simp, by simp [sumD], by have := HB.out.1; simpa using this⟩
  case round =>
    obtain ⟨left, hle, rfl, HI⟩ := hrel
    clear HT2
    by_cases hlt : 0 < left
    · obtain ⟨l, u, hT, hl1, hl2, hl3⟩ := HI.out
      obtain ⟨k, hk⟩ : ∃ k : Nat, min (left : Int) 16384 = (k : Int) ∧ k ≤ left ∧ k ≤ 16384 ∧ 1 ≤ k := ⟨min left 16384, by omega, by omega, by omega, by omega⟩
      obtain ⟨hk1, hk2, hk3, hk4⟩ := hk
      obtain ⟨M, hM1, hM2⟩ := mk_zero k (by omega)
      have hmk := hM1
      obtain ⟨V4, hV4⟩ : ∃ V, wr.alloc (.cells M 5) = V := ⟨_, rfl⟩
      obtain ⟨q4, hq4⟩ : ∃ q, wr.heap.size = q := ⟨_, rfl⟩
      have b4 : Below wr.heap.size wr V4 := by rw [← hV4]; exact bel1 _ _
      have hcv := hM2 V4 q4 (by rw [← hV4, ← hq4, heap_al, if_pos rfl])
      have HP : Hid (Calls Tryz.prog 17 #[.pointer (some ⟨b, 0, none⟩), .bool true, .agg #[.int .i64 0, .int .i64 0, .int .i64 1, .string (zz k), .int .i64 0, .int .i64 0, .bool false, .int .i64 0, .int .i64 0, .int .i64 0, .slice none 0 0]] V4 fun r w' => r = .returned (.tuple #[]) ∧ ∃ u, Tk w w' b u (tkL l ++ [daE (zz k)]) 3 2 ∧ K31 V4 w') := put_any (daE (zz k)) w V4 b u (tkL l) 3 2 (hT.below b4) rfl (by rw [tkL_len]; omega)
      have hsub : wrap64 ((left : Int) - (k : Int)) = ((left - k : Nat) : Int) := by unfold wrap64; omega
      have hgt : (0 : Int) < (left : Int) := by omega
      have hgt' : (left : Int) > 0 := hgt
      have HN : Hid (left - k ≤ n ∧ (∀ d ∈ l ++ [zz k], d.size ≤ 16384) ∧ sumD (l ++ [zz k]) + ((left - k : Nat) : Int) = (n : Int) ∧ (l ++ [zz k]).length + (left - k) ≤ 65535 ∧ left - k < left) := ⟨by omega, fun d hd => by
        rcases List.mem_append.1 hd with hd | hd
        · exact hl1 d hd
        · rw [List.mem_singleton.1 hd, zz_size]; exact hk3, by rw [sumD_snoc, zz_size]; omega, by simp; omega, by omega⟩
      obtain ⟨lk, hlk⟩ : ∃ z, left - k = z := ⟨_, rfl⟩
      rw [hlk] at hsub HN
      clear hT hl1 hl2 hl3 hk2 hk3 hk4 b4 HI hle hM1 hM2 hlk hlt
      go_wp2_with fail
      try rw [hV4]
      try rw [hq4]
      clear hV4 hq4
      go_at_call 17
      refine HP.out.mono ?_
      rintro e V5 ⟨rfl, u5, h5, _⟩
      have HE : Hid (∃ (l' : List ByteArray) (u : Value), Tk w V5 b u (tkL l') 3 2 ∧ (∀ d ∈ l', d.size ≤ 16384) ∧ sumD l' + (lk : Int) = (n : Int) ∧ l'.length + lk ≤ 65535) := ⟨l ++ [zz k], u5, by rw [← tkL_snoc]; exact h5, HN.out.2.1, HN.out.2.2.1, HN.out.2.2.2.1⟩
      have HLT : Hid (lk ≤ n ∧ lk < left) := ⟨HN.out.1, HN.out.2.2.2.2⟩
      clear h5 HP HN
      go_wp2_with fail
      go_roundw
      case rel => exact ⟨lk, HLT.out.1, by first | rfl | (rw [hsub]), HE.out⟩
      case measure => (try rw [hsub]); have := HLT.out.2; show ((lk : Int)).toNat < ((left : Int)).toNat; simpa using this
    · have hz : left = 0 := by omega
      subst hz
      have hng : ¬ (0 : Int) < ((0 : Nat) : Int) := by simp
      obtain ⟨l, u, hT, hl1, hl2, hl3⟩ := HI.out
      have HT : Hid (Tk w wr b u (tkL l) 3 2 ∧ (∀ d ∈ l, d.size ≤ 16384) ∧ sumD l = (n : Int) ∧ l.length ≤ 65535) := ⟨hT, hl1, by simpa using hl2, by omega⟩
      obtain ⟨rs, hrs⟩ : ∃ r : Nat, 65535 - n = r := ⟨_, rfl⟩
      have hrest : wrap64 (65535 - (n : Int)) = (rs : Int) := by have := HB.out.1; unfold wrap64; omega
      have HRS : Hid (rs + n = 65535) := by show _ = _; have := HB.out.1; omega
      clear hT hl1 hl2 hl3 HI hrs
      by_cases hbig : 16383 < rs
      · have hb1 : (16383 : Int) < (rs : Int) := by omega
        have hb2 : (rs : Int) > 16383 := hb1
        clear hbig
        go_wp2_with fail
        obtain ⟨q1, hq1⟩ : ∃ q, wr.heap.size = q := ⟨_, rfl⟩
        obtain ⟨W1, hW1⟩ : ∃ V, wr.alloc (.cells #[.int .i64 0, .int .i64 0, .int .i64 1, .string ⟨#[]⟩, .int .i64 0, .int .i64 0, .bool false, .int .i64 0, .int .i64 0, .int .i64 0, .slice none 0 0] 31) = V := ⟨_, rfl⟩
        have g1 : W1.heap[q1]? = some (.cells #[.int .i64 0, .int .i64 0, .int .i64 1, .string ⟨#[]⟩, .int .i64 0, .int .i64 0, .bool false, .int .i64 0, .int .i64 0, .int .i64 0, .slice none 0 0] 31 (0, 0)) := by rw [← hW1, ← hq1, heap_al, if_pos rfl]
        have t1 : Below w.heap.size w W1 := by rw [← hW1]; exact HT.out.1.bel.trans ((bel1 _ _).mono HT.out.1.bel.size)
        have HFs := hid (HF.out W1 t1)
        have HW := hid hW1
        have HQ := hid hq1
        have G1 := hid g1
        have HB1 := hid t1
        clear HB HLC HCk hn' hpd' hg0' hgv HRS HT hq1 hW1 g1 t1
        go_upto_region 14 with fail
        rw [HW.out, HQ.out]
        go_wp2_with fail
        go_at_call 11
        refine HFs.out.mono ?_
        rintro e' V ⟨rfl, bX⟩
        have gV := (bX.block _ (heap_lt G1.out)).trans G1.out
        have c0 := cell_blk gV 0
        have c1 := cell_blk gV 1
        have c2 := cell_blk gV 2
        have c3 := cell_blk gV 3
        have c4 := cell_blk gV 4
        have c5 := cell_blk gV 5
        have c6 := cell_blk gV 6
        have c7 := cell_blk gV 7
        have c8 := cell_blk gV 8
        have c9 := cell_blk gV 9
        have c10 := cell_blk gV 10
        simp only [List.getElem?_toArray, List.getElem?_cons_succ, List.getElem?_cons_zero] at c0 c1 c2 c3 c4 c5 c6 c7 c8 c9 c10
        have HS0 := hid (same0 V)
        have HBF := hid (HB1.out.trans (bX.mono HB1.out.size))
        clear bX gV HFs HW HQ G1 HB1 hrest hb1 hb2
        go_wp2_with fail
        go_at_call 18
        refine HS0.out.mono ?_
        rintro e' V2 ⟨rfl, bY⟩
        have hE := HBF.out.trans (bY.mono HBF.out.size)
        clear bY HBF HS0
        go_wp2_with fail
        go_ret
        exact ⟨rfl, hE⟩
      · have hb1 : ¬ (16383 : Int) < (rs : Int) := by omega
        have hb2 : ¬ (rs : Int) > 16383 := hb1
        have HR2 : Hid (rs ≤ 16383) := by show _ ≤ _; omega
        clear hbig
        -- the frames' boxes
        obtain ⟨q1, hq1⟩ : ∃ q, wr.heap.size = q := ⟨_, rfl⟩
        obtain ⟨W1, hW1⟩ : ∃ V, wr.alloc (.cells #[.int .i64 0, .int .i64 0, .int .i64 1, .string ⟨#[]⟩, .int .i64 0, .int .i64 0, .bool false, .int .i64 0, .int .i64 0, .int .i64 0, .slice none 0 0] 31) = V := ⟨_, rfl⟩
        have g1 : W1.heap[q1]? = some (.cells #[.int .i64 0, .int .i64 0, .int .i64 1, .string ⟨#[]⟩, .int .i64 0, .int .i64 0, .bool false, .int .i64 0, .int .i64 0, .int .i64 0, .slice none 0 0] 31 (0, 0)) := by rw [← hW1, ← hq1, heap_al, if_pos rfl]
        have t1 := HT.out.1.below (show Below wr.heap.size wr W1 by rw [← hW1]; exact bel1 _ _)
        obtain ⟨M1, hm1, hc1⟩ := mk_zero rs (by have := HR2.out; omega)
        obtain ⟨q2, hq2⟩ : ∃ q, W1.heap.size = q := ⟨_, rfl⟩
        obtain ⟨W2, hW2⟩ : ∃ V, W1.alloc (.cells M1 5) = V := ⟨_, rfl⟩
        have b2 : Below W1.heap.size W1 W2 := by rw [← hW2]; exact bel1 _ _
        have g2 : W2.heap[q1]? = some (.cells #[.int .i64 0, .int .i64 0, .int .i64 1, .string ⟨#[]⟩, .int .i64 0, .int .i64 0, .bool false, .int .i64 0, .int .i64 0, .int .i64 0, .slice none 0 0] 31 (0, 0)) := (b2.block _ (heap_lt g1)).trans g1
        have t2 := t1.below b2
        have hcv := hc1 W2 q2 (by rw [← hW2, ← hq2, heap_al, if_pos rfl])
        obtain ⟨W3, hW3⟩ : ∃ V, W2.setCell ⟨q1, 3, none⟩ (.string (zz rs)) = V := ⟨_, rfl⟩
        have g3 : W3.heap[q1]? = some (.cells #[.int .i64 0, .int .i64 0, .int .i64 1, .string (zz rs), .int .i64 0, .int .i64 0, .bool false, .int .i64 0, .int .i64 0, .int .i64 0, .slice none 0 0] 31 (0, 0)) := by
          rw [← hW3, setCell_block _ _ _ _ _ _ _ g2]
          rfl
        have t3 : Tk w W3 b u (tkL l) 3 2 := by
          have hne : q1 ≠ b := t2.ne g2 (by decide)
          rw [← hW3]
          refine ⟨(setCell_other _ _ _ _ _ (Ne.symm hne)).trans t2.blk, t2.row.stays fun k hk _ => setCell_other _ _ _ _ _ fun e => ?_, t2.own, t2.lo, t2.bel.trans (((Ks.refl (fun i => i = q1) W2).set q1 3 _ rfl).below t2.bel.size fun i hi e => ?_)⟩
          · obtain ⟨cc, hc⟩ := t2.row.ty k hk
            exact ty_ne hc g2 (by decide) e
          · have := HT.out.1.bel.size
            omega
        have HJ3 : Hid (Tk w W3 b u (tkL l) 3 2 ∧ W3.heap[q1]? = some (.cells #[.int .i64 0, .int .i64 0, .int .i64 1, .string (zz rs), .int .i64 0, .int .i64 0, .bool false, .int .i64 0, .int .i64 0, .int .i64 0, .slice none 0 0] 31 (0, 0))) := ⟨t3, g3⟩
        have HW := hid hW1
        have HQ1 := hid hq1
        have HQ2 := hid hq2
        have HW2 := hid hW2
        have HW3 := hid hW3
        have k3 := cell_blk g2 3
        have f3 := frozen_blk g2 3
        simp only [List.getElem?_toArray, List.getElem?_cons_succ, List.getElem?_cons_zero] at k3
        clear hW1 hq1 g1 t1 b2 g2 t2 g3 t3 hc1
        go_upto_region 15 with fail
        rw [HW.out, HQ1.out]
        go_upto_region 16 with fail
        try rw [HW2.out]
        try rw [HW3.out]
        clear hq2 hW2 hW3 k3 f3 hcv hm1 HW HQ1 HQ2 HW2 HW3
        obtain ⟨q3, hq3⟩ : ∃ q, W3.heap.size = q := ⟨_, rfl⟩
        obtain ⟨W4, hW4⟩ : ∃ V, W3.alloc (.cells #[.int .i64 0, .int .i64 0, .int .i64 1, .string (zz rs), .int .i64 0, .int .i64 0, .bool false, .int .i64 0, .int .i64 0, .int .i64 0, .slice none 0 0] 31) = V := ⟨_, rfl⟩
        have b4 : Below W3.heap.size W3 W4 := by rw [← hW4]; exact bel1 _ _
        have g4 : W4.heap[q3]? = some (.cells #[.int .i64 0, .int .i64 0, .int .i64 1, .string (zz rs), .int .i64 0, .int .i64 0, .bool false, .int .i64 0, .int .i64 0, .int .i64 0, .slice none 0 0] 31 (0, 0)) := by rw [← hW4, ← hq3, heap_al, if_pos rfl]
        have p4 : W4.heap[q1]? = some (.cells #[.int .i64 0, .int .i64 0, .int .i64 1, .string (zz rs), .int .i64 0, .int .i64 0, .bool false, .int .i64 0, .int .i64 0, .int .i64 0, .slice none 0 0] 31 (0, 0)) := (b4.block _ (heap_lt HJ3.out.2)).trans HJ3.out.2
        have t4 := HJ3.out.1.below b4
        have hq13 : q1 ≠ q3 := fun e => by have := heap_lt HJ3.out.2; omega
        obtain ⟨r1, hr1e⟩ : ∃ r, rs + 1 = r := ⟨_, rfl⟩
        obtain ⟨M2, hm2, hc2⟩ := mk_zero r1 (by have := HR2.out; omega)
        obtain ⟨q4, hq4⟩ : ∃ q, W4.heap.size = q := ⟨_, rfl⟩
        obtain ⟨W5, hW5⟩ : ∃ V, W4.alloc (.cells M2 5) = V := ⟨_, rfl⟩
        have b5 : Below W4.heap.size W4 W5 := by rw [← hW5]; exact bel1 _ _
        have g5 : W5.heap[q3]? = some (.cells #[.int .i64 0, .int .i64 0, .int .i64 1, .string (zz rs), .int .i64 0, .int .i64 0, .bool false, .int .i64 0, .int .i64 0, .int .i64 0, .slice none 0 0] 31 (0, 0)) := (b5.block _ (heap_lt g4)).trans g4
        have p5 : W5.heap[q1]? = some (.cells #[.int .i64 0, .int .i64 0, .int .i64 1, .string (zz rs), .int .i64 0, .int .i64 0, .bool false, .int .i64 0, .int .i64 0, .int .i64 0, .slice none 0 0] 31 (0, 0)) := (b5.block _ (heap_lt p4)).trans p4
        have t5 := t4.below b5
        have hcv2 := hc2 W5 q4 (by rw [← hW5, ← hq4, heap_al, if_pos rfl])
        obtain ⟨W6, hW6⟩ : ∃ V, W5.setCell ⟨q3, 3, none⟩ (.string (zz r1)) = V := ⟨_, rfl⟩
        have g6 : W6.heap[q3]? = some (.cells #[.int .i64 0, .int .i64 0, .int .i64 1, .string (zz r1), .int .i64 0, .int .i64 0, .bool false, .int .i64 0, .int .i64 0, .int .i64 0, .slice none 0 0] 31 (0, 0)) := by
          rw [← hW6, setCell_block _ _ _ _ _ _ _ g5]
          rfl
        have p6 : W6.heap[q1]? = some (.cells #[.int .i64 0, .int .i64 0, .int .i64 1, .string (zz rs), .int .i64 0, .int .i64 0, .bool false, .int .i64 0, .int .i64 0, .int .i64 0, .slice none 0 0] 31 (0, 0)) := by
          rw [← hW6, setCell_other _ _ _ _ _ hq13]
          exact p5
        have t6 : Tk w W6 b u (tkL l) 3 2 := by
          have hne : q3 ≠ b := t5.ne g5 (by decide)
          rw [← hW6]
          refine ⟨(setCell_other _ _ _ _ _ (Ne.symm hne)).trans t5.blk, t5.row.stays fun k hk _ => setCell_other _ _ _ _ _ fun e => ?_, t5.own, t5.lo, t5.bel.trans (((Ks.refl (fun i => i = q3) W5).set q3 3 _ rfl).below t5.bel.size fun i hi e => ?_)⟩
          · obtain ⟨cc, hc⟩ := t5.row.ty k hk
            exact ty_ne hc g5 (by decide) e
          · have := HJ3.out.1.bel.size
            omega
        obtain ⟨kp, hkp⟩ : ∃ k : Nat, max 0 ((rs : Int) - (pd : Int)) = (k : Int) := ⟨(max 0 ((rs : Int) - (pd : Int))).toNat, by omega⟩
        have hwp : wrap64 ((rs : Int) - (pd : Int)) = (rs : Int) - (pd : Int) := by have := HR2.out; have := HB.out.2.1; unfold wrap64; omega
        have hmax : max 0 (wrap64 ((rs : Int) - (pd : Int))) = (kp : Int) := by rw [hwp]; exact hkp
        have HKP : Hid ((kp : Int) = max 0 ((rs : Int) - (pd : Int))) := hkp.symm
        have hkl : kp ≤ 16383 := by have := HR2.out; omega
        obtain ⟨M3, hm3, hc3⟩ := mk_zero kp (by omega)
        obtain ⟨q5, hq5⟩ : ∃ q, W6.heap.size = q := ⟨_, rfl⟩
        obtain ⟨W7, hW7⟩ : ∃ V, W6.alloc (.cells M3 5) = V := ⟨_, rfl⟩
        have b7 : Below W6.heap.size W6 W7 := by rw [← hW7]; exact bel1 _ _
        have hcv3 := hc3 W7 q5 (by rw [← hW7, ← hq5, heap_al, if_pos rfl])
        obtain ⟨q6, hq6⟩ : ∃ q, W7.heap.size = q := ⟨_, rfl⟩
        obtain ⟨W8, hW8⟩ : ∃ V, W7.alloc (.cells #[.int .i64 0, .int .i64 8, .int .i64 1, .string (zz kp), .int .i64 (pd : Int), .int .i64 0, .bool false, .int .i64 0, .int .i64 0, .int .i64 0, .slice none 0 0] 31) = V := ⟨_, rfl⟩
        have b8 : Below W7.heap.size W7 W8 := by rw [← hW8]; exact bel1 _ _
        have b78 : Below W6.heap.size W6 W8 := b7.trans (b8.mono b7.size)
        have HJ8 : Hid (Tk w W8 b u (tkL l) 3 2 ∧ W8.heap[q1]? = some (.cells #[.int .i64 0, .int .i64 0, .int .i64 1, .string (zz rs), .int .i64 0, .int .i64 0, .bool false, .int .i64 0, .int .i64 0, .int .i64 0, .slice none 0 0] 31 (0, 0)) ∧ W8.heap[q3]? = some (.cells #[.int .i64 0, .int .i64 0, .int .i64 1, .string (zz r1), .int .i64 0, .int .i64 0, .bool false, .int .i64 0, .int .i64 0, .int .i64 0, .slice none 0 0] 31 (0, 0)) ∧ W8.heap[q6]? = some (.cells #[.int .i64 0, .int .i64 8, .int .i64 1, .string (zz kp), .int .i64 (pd : Int), .int .i64 0, .bool false, .int .i64 0, .int .i64 0, .int .i64 0, .slice none 0 0] 31 (0, 0))) := ⟨t6.below b78, (b78.block _ (heap_lt p6)).trans p6, (b78.block _ (heap_lt g6)).trans g6, by rw [← hW8, ← hq6, heap_al, if_pos rfl]⟩
        have hr1 : wrap64 ((rs : Int) + 1) = (r1 : Int) := by have := HR2.out; unfold wrap64; omega
        have HR1 := hid hr1e
        have hm2' := hm2
        rw [show ((r1 : Nat) : Int) = (rs : Int) + 1 by omega] at hm2'
        have hm3' := hm3
        rw [← hkp] at hm3'
        have HW4 := hid hW4
        have HQ3 := hid hq3
        have HW8 := hid hW8
        have HQ6 := hid hq6
        have HW6 := hid hW6
        have c0 := cell_blk HJ3.out.2 0
        have c1 := cell_blk HJ3.out.2 1
        have c2 := cell_blk HJ3.out.2 2
        have c3 := cell_blk HJ3.out.2 3
        have c4 := cell_blk HJ3.out.2 4
        have c5 := cell_blk HJ3.out.2 5
        have c6 := cell_blk HJ3.out.2 6
        have c7 := cell_blk HJ3.out.2 7
        have c8 := cell_blk HJ3.out.2 8
        have c9 := cell_blk HJ3.out.2 9
        have c10 := cell_blk HJ3.out.2 10
        have k3 := cell_blk g5 3
        have f3 := frozen_blk g5 3
        simp only [List.getElem?_toArray, List.getElem?_cons_succ, List.getElem?_cons_zero] at k3 c0 c1 c2 c3 c4 c5 c6 c7 c8 c9 c10
        clear hW4 hq3 b4 g4 p4 t4 hq13 b5 g5 p5 t5 g6 p6 t6 b7 hq6 hW8 b8 b78 HJ3 hc2 hc3 hkp hwp hkl hr1e
        go_upto_region 17 with fail
        rw [HW4.out, HQ3.out]
        clear c0 c1 c2 c3 c4 c5 c6 c7 c8 c9 c10
        go_upto_region 18 with fail
        try rw [HW6.out]
        go_upto_region 19 with fail
        try rw [HW8.out]
        try rw [HQ6.out]
        clear hm2 hq4 hW5 hcv2 hW6 hmax hm3 hq5 hW7 hcv3 hr1 hm2' hm3' HW4 HQ3 HW8 HQ6 HW6 f3 k3 hrest hb1 hb2 hn' hpd' hg0' hle hlt hng hgv
        have HWn0 : Hid (Wn w W8 b u (tkL l) q1 q3 q6 (zz rs) (zz r1) (zz kp) (pd : Int)) := ⟨HJ8.out.1, HJ8.out.2.1, HJ8.out.2.2.1, HJ8.out.2.2.2⟩
        have HLL : Hid ((tkL l).length ≤ 70000) := by
          have := HT.out.2.2.2
          show (tkL l).length ≤ 70000
          rw [tkL_len]
          omega
        obtain ⟨m, hm⟩ : ∃ m, 5 + l.length = m := ⟨_, rfl⟩
        have HA := hid (win_all l (zz rs) (zz r1) (zz kp) (zz gv) (pd : Int) (gv : Int) (rs : Int) HT.out.2.1 (by have h1 := HT.out.2.2.1; have h2 := HRS.out; omega) (by have := HR2.out; omega) (by rw [zz_size]) (by rw [zz_size]; have := HR1.out; omega) (by have := HB.out.2.1; omega) (by rw [zz_size]; exact HKP.out) (by have := HB.out.2.2; omega) (by rw [zz_size]) m hm)
        obtain ⟨ub, uc, hu, hc1, hc2⟩ := HWn0.out.tk.row.slice
        rw [List.length_map, tkL_len, hm] at hu hc1
        have HM : Hid ((tkL l).length = m) := by rw [← hm]; exact tkL_len l
        subst hu
        have HC1 : Hid (∀ V z, Below w.heap.size w V → Lo w V z (tkL l ++ [daE (zz rs)]) → Calls Tryz.prog 9 #[z, .bool true] V fun r w' => r = .returned (.tuple #[.int .i64 (-1), .int .i64 0]) ∧ Below V.heap.size V w') := fun V z hV hz => HLC.out true _ z V _ hV hz HA.out.2.2.1 (by have := HLL.out; simp; omega) HA.out.1.1
        have HC2 : Hid (∀ V z, Below w.heap.size w V → Lo w V z (tkL l ++ [daE (zz r1)]) → Calls Tryz.prog 9 #[z, .bool true] V fun r w' => r = .returned (.tuple #[.int .i64 (m : Int), .int .i64 3]) ∧ Below V.heap.size V w') := fun V z hV hz => HLC.out true _ z V _ hV hz HA.out.2.2.2.1 (by have := HLL.out; simp; omega) HA.out.1.2.1
        have HC3 : Hid (∀ V z, Below w.heap.size w V → Lo w V z ((tkL l ++ [daE (zz r1)]).map Et.flip) → Calls Tryz.prog 9 #[z, .bool false] V fun r w' => r = .returned (.tuple #[.int .i64 (m : Int), .int .i64 3]) ∧ Below V.heap.size V w') := fun V z hV hz => HLC.out false _ z V _ hV hz HA.out.2.2.2.2.1 (by have := HLL.out; simp; omega) HA.out.1.2.2.1
        have HC4 : Hid (∀ V z, Below w.heap.size w V → Lo w V z (tkL l ++ [paE (zz kp) (pd : Int)]) → Calls Tryz.prog 9 #[z, .bool true] V fun r w' => r = .returned (.tuple #[.int .i64 (m : Int), .int .i64 3]) ∧ Below V.heap.size V w') := fun V z hV hz => HLC.out true _ z V _ hV hz HA.out.2.2.2.2.2.1 (by have := HLL.out; simp; omega) HA.out.1.2.2.2.1
        have HC5 : Hid (∀ V z, Below w.heap.size w V → Lo w V z (tkL l ++ [daE (zz rs)] ++ [upE 0 (gv : Int)] ++ [daE (zz gv)]) → Calls Tryz.prog 9 #[z, .bool true] V fun r w' => r = .returned (.tuple #[.int .i64 ((m + 2 : Nat) : Int), .int .i64 3]) ∧ Below V.heap.size V w') := fun V z hV hz => HLC.out true _ z V _ hV hz HA.out.2.2.2.2.2.2.2.1 (by have := HLL.out; simp; omega) HA.out.1.2.2.2.2.1
        have HC6 : Hid (∀ V z, Below w.heap.size w V → Lo w V z (tkL l ++ [daE (zz rs)] ++ [upE 0 (gv : Int)] ++ [upE 1 (gv : Int), daE (zz gv)]) → Calls Tryz.prog 9 #[z, .bool true] V fun r w' => r = .returned (.tuple #[.int .i64 (-1), .int .i64 0]) ∧ Below V.heap.size V w') := fun V z hV hz => HLC.out true _ z V _ hV hz HA.out.2.2.2.2.2.2.2.2.1 (by have := HLL.out; simp; omega) HA.out.1.2.2.2.2.2.1
        have HC7 : Hid (∀ V z, Below w.heap.size w V → Lo w V z ((tkL l ++ [daE (zz rs)] ++ [upE 0 (gv : Int)] ++ [upE 1 (gv : Int), daE (zz gv)]).map Et.flip) → Calls Tryz.prog 9 #[z, .bool false] V fun r w' => r = .returned (.tuple #[.int .i64 (-1), .int .i64 0]) ∧ Below V.heap.size V w') := fun V z hV hz => HLC.out false _ z V _ hV hz HA.out.2.2.2.2.2.2.2.2.2 (by have := HLL.out; simp; omega) HA.out.1.2.2.2.2.2.2
        have HP0 : Hid (Wn w W8 b (.slice ub m uc) (tkL l) q1 q3 q6 (zz rs) (zz r1) (zz kp) (pd : Int) ∧ True) := ⟨HWn0.out, trivial⟩
        have HGV : Hid (gv ≤ 16384 ∧ m ≤ 70000) := ⟨HB.out.2.2.2, by have h1 := HLL.out; have h2 := HM.out; omega⟩
        clear hc1 hc2 hm HWn0 HJ8 HT HRS HR2 HR1 HKP HLC HCk HB
        -- region 19
        have hS19 : Hid (∀ V : World, Wn w V b (.slice ub m uc) (tkL l) q1 q3 q6 (zz rs) (zz r1) (zz kp) (pd : Int) → V.cell? ⟨b, 0, none⟩ = some (.slice ub m uc) ∧ V.cell? ⟨q1, 0, none⟩ = some (.int .i64 0) ∧ V.cell? ⟨q1, 1, none⟩ = some (.int .i64 0) ∧ V.cell? ⟨q1, 2, none⟩ = some (.int .i64 1) ∧ V.cell? ⟨q1, 3, none⟩ = some (.string (zz rs)) ∧ V.cell? ⟨q1, 4, none⟩ = some (.int .i64 0) ∧ V.cell? ⟨q1, 5, none⟩ = some (.int .i64 0) ∧ V.cell? ⟨q1, 6, none⟩ = some (.bool false) ∧ V.cell? ⟨q1, 7, none⟩ = some (.int .i64 0) ∧ V.cell? ⟨q1, 8, none⟩ = some (.int .i64 0) ∧ V.cell? ⟨q1, 9, none⟩ = some (.int .i64 0) ∧ V.cell? ⟨q1, 10, none⟩ = some (.slice none 0 0)) := fun V h => ⟨cell_blk h.tk.blk 0, cell_blk h.g1 0, cell_blk h.g1 1, cell_blk h.g1 2, cell_blk h.g1 3, cell_blk h.g1 4, cell_blk h.g1 5, cell_blk h.g1 6, cell_blk h.g1 7, cell_blk h.g1 8, cell_blk h.g1 9, cell_blk h.g1 10⟩
        have HOw : Hid (∀ V, Wn w V b (.slice ub m uc) (tkL l) q1 q3 q6 (zz rs) (zz r1) (zz kp) (pd : Int) ∧ True → Calls Tryz.prog 10 #[(.slice ub m uc)] V fun r V' => ∃ z, r = .returned z ∧ Lo w V' z (tkL l) ∧ (∀ k, z.ownBlock = some k → V.heap.size ≤ k) ∧ Below V.heap.size V V') := fun V h => h.1.own HA.out.2.1 (by have := HLL.out; omega)
        apply cut_rest
        · intro hrest
          have hIW : Wn w W8.drew b (.slice ub m uc) (tkL l) q1 q3 q6 (zz rs) (zz r1) (zz kp) (pd : Int) ∧ True := ⟨HP0.out.1.below (Below.refl _ _).drew, trivial⟩
          refine wp_region_held_drew (S := (fun V => V.cell? ⟨b, 0, none⟩ = some (.slice ub m uc) ∧ V.cell? ⟨q1, 0, none⟩ = some (.int .i64 0) ∧ V.cell? ⟨q1, 1, none⟩ = some (.int .i64 0) ∧ V.cell? ⟨q1, 2, none⟩ = some (.int .i64 1) ∧ V.cell? ⟨q1, 3, none⟩ = some (.string (zz rs)) ∧ V.cell? ⟨q1, 4, none⟩ = some (.int .i64 0) ∧ V.cell? ⟨q1, 5, none⟩ = some (.int .i64 0) ∧ V.cell? ⟨q1, 6, none⟩ = some (.bool false) ∧ V.cell? ⟨q1, 7, none⟩ = some (.int .i64 0) ∧ V.cell? ⟨q1, 8, none⟩ = some (.int .i64 0) ∧ V.cell? ⟨q1, 9, none⟩ = some (.int .i64 0) ∧ V.cell? ⟨q1, 10, none⟩ = some (.slice none 0 0))) (by kernel_rfl) (hS19.out _ hIW.1) (fun hHeld => ?_)
          generalize hWg : World.drew _ = X19 at hIW hHeld ⊢
          clear hWg
          have hB0 : Below X19.heap.size X19 X19 := Below.refl _ _
          have HX := hid hIW
          clear hIW
          refine tkA (i := 0) (oi := ⟨some 87, .move (.tmp 7), 43, "honest.go:205", #[], none⟩) ?_
          try simp only [Act.put, lA, l0, lS]
          refine tkA (i := 1) (oi := ⟨some 88, .nilCheck (.tmp 87), 0, "honest.go:205", #[⟨0, .data⟩], none⟩) ?_
          try simp only [Act.put, lA, l0, lS]
          refine tkA (i := 2) (oi := ⟨some 89, .fieldAddr 46 (.tmp 88) 0, 0, "honest.go:205", #[⟨1, .data⟩], none⟩) ?_
          try simp only [Act.put, lA, l0, lS]
          refine tkA (i := 3) (oi := ⟨some 90, .load 22 (.tmp 89), 22, "honest.go:205", #[⟨2, .data⟩], none⟩) ?_
          try simp only [Act.put, lA, l0, lS]
          refine tkA (i := 5) (oi := ⟨some 92, .load 31 (.tmp 11), 31, "honest.go:205", #[], none⟩) ?_
          try simp only [Act.put, lA, l0, lS]
          refine tkA (i := 6) (oi := ⟨some 93, .build 33 #[(0, .const (.bool true)), (1, .tmp 92)], 33, "honest.go:205", #[⟨5, .data⟩], none⟩) ?_
          try simp only [Act.put, lA, l0, lS]
          refine wpAnyH_ready (rs := [4, 7]) (by kernel_rfl) (by simp) ?_
          refine AllReadyH.cons (o := ⟨some 91, .call { callee := Callee.value (.func 10), args := #[.tmp 90], argTypes := #[22] }, 22, "honest.go:205", #[⟨3, .data⟩], none⟩) rfl (fun K hK => ?_) ?_
          · go_simp
            refine (HOw.out _ ⟨HX.out.1.below hB0, trivial⟩).mono ?_
            rintro e' Ya ⟨z0, rfl, lz0, fz, bX⟩
            have hYa := hB0.trans (bX.mono hB0.size)
            have fz0 : Hid (∀ k, z0.ownBlock = some k → X19.heap.size ≤ k) := fun k hk => Nat.le_trans hB0.size (fz k hk)
            have lz := hid lz0
            clear lz0
            clear bX fz hB0
            go_wp2_with fail
            refine hK.out _ _ (hS19.out _ (HX.out.1.below hYa)) (fun hHeld => ?_)
            clear hK K
            try simp only [Act.put, lA, l0, lS]
            refine wpAnyH_ready (rs := [7]) (by kernel_rfl) (by simp) ?_
            refine AllReadyH.cons (o := ⟨some 94, .buildSlice 22 1 #[(0, .tmp 93)], 22, "honest.go:205", #[⟨6, .data⟩], none⟩) rfl (fun K hK => ?_) AllReadyH.nil
            obtain ⟨qv, hqv⟩ : ∃ q, Ya.heap.size = q := ⟨_, rfl⟩
            obtain ⟨Yaa, hV0⟩ : ∃ V, Ya.alloc (.cells #[.bool true, .int .i64 0, .int .i64 0, .int .i64 1, .string (zz rs), .int .i64 0, .int .i64 0, .bool false, .int .i64 0, .int .i64 0, .int .i64 0, .slice none 0 0] 33) = V := ⟨_, rfl⟩
            have bX : Below Ya.heap.size Ya Yaa := by rw [← hV0]; exact bel1 _ _
            have hYaa := hYa.trans (bX.mono hYa.size)
            have gYaa : Yaa.heap[qv]? = some (.cells #[.bool true, .int .i64 0, .int .i64 0, .int .i64 1, .string (zz rs), .int .i64 0, .int .i64 0, .bool false, .int .i64 0, .int .i64 0, .int .i64 0, .slice none 0 0] 33 (0, 0)) := by rw [← hV0, ← hqv, heap_al, if_pos rfl]
            have lzn := hid (lz.out.below bX)
            clear lz
            have lz := lzn
            clear lzn
            clear bX hYa
            go_simp
            go_wp2_with fail
            try rw [hV0]
            try rw [hqv]
            refine hK.out _ _ (hS19.out _ (HX.out.1.below hYaa)) (fun hHeld => ?_)
            clear hK K hV0 hqv
            try simp only [Act.put, lA, l0, lS]
            refine wpAnyH_ready (rs := [8]) (by kernel_rfl) (by simp) ?_
            refine AllReadyH.cons (o := ⟨some 95, .call { callee := Callee.builtin Builtin.append, args := #[.tmp 91, .tmp 94], argTypes := #[22, 22] }, 22, "honest.go:205", #[⟨4, .data⟩, ⟨7, .data⟩, ⟨4, .chain⟩], none⟩) rfl (fun K hK => ?_) AllReadyH.nil
            obtain ⟨z1, Yaaa, hrun, lz10, hG⟩ := lo_app w _ z0 _ lz.out (Nat.le_trans HX.out.1.tk.bel.size hYaa.size) [daE (zz rs)] (fun e he => by rw [List.mem_singleton.1 he]; rfl) qv _ gYaa rfl (by have := HLL.out; simp; omega)
            have lz1 := hid lz10
            clear lz10
            have hYaaa := hYaa.trans (hG.belowB hYaa.size fz0.out)
            clear hG lz hYaa gYaa fz0
            simp only [List.length_cons, List.length_nil, Nat.zero_add] at hrun
            refine step_append_run rfl (.tmp 91) (.tmp 94) 22 22 rfl hrun rfl rfl ?_
            refine hK.out _ _ (hS19.out _ (HX.out.1.below hYaaa)) (fun hHeld => ?_)
            clear hK K hrun
            try simp only [Act.put, lA, l0, lS]
            refine tkA (i := 9) (oi := ⟨some 14, .assign (.tmp 95), 22, "honest.go:205", #[⟨8, .data⟩, ⟨8, .chain⟩, ⟨0, .phase⟩, ⟨1, .phase⟩, ⟨2, .phase⟩, ⟨3, .phase⟩, ⟨4, .phase⟩, ⟨5, .phase⟩, ⟨6, .phase⟩, ⟨7, .phase⟩, ⟨8, .phase⟩], none⟩) ?_
            try simp only [Act.put, lA, l0, lS]
            refine wpAnyH_done (by kernel_rfl) ?_ _
            have HF : Hid (Wn w Yaaa b (.slice ub m uc) (tkL l) q1 q3 q6 (zz rs) (zz r1) (zz kp) (pd : Int) ∧ Lo w Yaaa z1 (tkL l ++ [daE (zz rs)])) := ⟨HX.out.1.below hYaaa, lz1.out⟩
            clear hHeld lz1 hYaaa HX
            revert HF
            revert Yaaa
            revert z1
            revert qv
            revert z0
            exact hrest.out
          refine AllReadyH.cons (o := ⟨some 94, .buildSlice 22 1 #[(0, .tmp 93)], 22, "honest.go:205", #[⟨6, .data⟩], none⟩) rfl (fun K hK => ?_) AllReadyH.nil
          obtain ⟨qv, hqv⟩ : ∃ q, X19.heap.size = q := ⟨_, rfl⟩
          obtain ⟨Ya, hV0⟩ : ∃ V, X19.alloc (.cells #[.bool true, .int .i64 0, .int .i64 0, .int .i64 1, .string (zz rs), .int .i64 0, .int .i64 0, .bool false, .int .i64 0, .int .i64 0, .int .i64 0, .slice none 0 0] 33) = V := ⟨_, rfl⟩
          have bX : Below X19.heap.size X19 Ya := by rw [← hV0]; exact bel1 _ _
          have hYa := hB0.trans (bX.mono hB0.size)
          have gYa : Ya.heap[qv]? = some (.cells #[.bool true, .int .i64 0, .int .i64 0, .int .i64 1, .string (zz rs), .int .i64 0, .int .i64 0, .bool false, .int .i64 0, .int .i64 0, .int .i64 0, .slice none 0 0] 33 (0, 0)) := by rw [← hV0, ← hqv, heap_al, if_pos rfl]
          clear bX hB0
          go_simp
          go_wp2_with fail
          try rw [hV0]
          try rw [hqv]
          refine hK.out _ _ (hS19.out _ (HX.out.1.below hYa)) (fun hHeld => ?_)
          clear hK K hV0 hqv
          try simp only [Act.put, lA, l0, lS]
          refine wpAnyH_ready (rs := [4]) (by kernel_rfl) (by simp) ?_
          refine AllReadyH.cons (o := ⟨some 91, .call { callee := Callee.value (.func 10), args := #[.tmp 90], argTypes := #[22] }, 22, "honest.go:205", #[⟨3, .data⟩], none⟩) rfl (fun K hK => ?_) AllReadyH.nil
          go_simp
          refine (HOw.out _ ⟨HX.out.1.below hYa, trivial⟩).mono ?_
          rintro e' Yaa ⟨z0, rfl, lz0, fz, bX⟩
          have hYaa := hYa.trans (bX.mono hYa.size)
          have fz0 : Hid (∀ k, z0.ownBlock = some k → X19.heap.size ≤ k) := fun k hk => Nat.le_trans hYa.size (fz k hk)
          have lz := hid lz0
          clear lz0
          have gYaa := (bX.block _ (heap_lt gYa)).trans gYa
          clear gYa
          clear bX fz hYa
          go_wp2_with fail
          refine hK.out _ _ (hS19.out _ (HX.out.1.below hYaa)) (fun hHeld => ?_)
          clear hK K
          try simp only [Act.put, lA, l0, lS]
          refine wpAnyH_ready (rs := [8]) (by kernel_rfl) (by simp) ?_
          refine AllReadyH.cons (o := ⟨some 95, .call { callee := Callee.builtin Builtin.append, args := #[.tmp 91, .tmp 94], argTypes := #[22, 22] }, 22, "honest.go:205", #[⟨4, .data⟩, ⟨7, .data⟩, ⟨4, .chain⟩], none⟩) rfl (fun K hK => ?_) AllReadyH.nil
          obtain ⟨z1, Yaaa, hrun, lz10, hG⟩ := lo_app w _ z0 _ lz.out (Nat.le_trans HX.out.1.tk.bel.size hYaa.size) [daE (zz rs)] (fun e he => by rw [List.mem_singleton.1 he]; rfl) qv _ gYaa rfl (by have := HLL.out; simp; omega)
          have lz1 := hid lz10
          clear lz10
          have hYaaa := hYaa.trans (hG.belowB hYaa.size fz0.out)
          clear hG lz hYaa gYaa fz0
          simp only [List.length_cons, List.length_nil, Nat.zero_add] at hrun
          refine step_append_run rfl (.tmp 91) (.tmp 94) 22 22 rfl hrun rfl rfl ?_
          refine hK.out _ _ (hS19.out _ (HX.out.1.below hYaaa)) (fun hHeld => ?_)
          clear hK K hrun
          try simp only [Act.put, lA, l0, lS]
          refine tkA (i := 9) (oi := ⟨some 14, .assign (.tmp 95), 22, "honest.go:205", #[⟨8, .data⟩, ⟨8, .chain⟩, ⟨0, .phase⟩, ⟨1, .phase⟩, ⟨2, .phase⟩, ⟨3, .phase⟩, ⟨4, .phase⟩, ⟨5, .phase⟩, ⟨6, .phase⟩, ⟨7, .phase⟩, ⟨8, .phase⟩], none⟩) ?_
          try simp only [Act.put, lA, l0, lS]
          refine wpAnyH_done (by kernel_rfl) ?_ _
          have HF : Hid (Wn w Yaaa b (.slice ub m uc) (tkL l) q1 q3 q6 (zz rs) (zz r1) (zz kp) (pd : Int) ∧ Lo w Yaaa z1 (tkL l ++ [daE (zz rs)])) := ⟨HX.out.1.below hYaaa, lz1.out⟩
          clear hHeld lz1 hYaaa HX
          revert HF
          revert Yaaa
          revert z1
          revert qv
          revert z0
          exact hrest.out
        · intro z0 qv v14 V19 H19
          clear hS19 HOw HP0
          go_wp2_with fail
          go_at_call 9
          refine (HC1.out V19 v14 H19.out.1.tk.bel H19.out.2).mono ?_
          rintro e' V20 ⟨rfl, bX⟩
          have H20 : Hid (Wn w V20 b (.slice ub m uc) (tkL l) q1 q3 q6 (zz rs) (zz r1) (zz kp) (pd : Int) ∧ Lo w V20 v14 (tkL l ++ [daE (zz rs)])) := ⟨H19.out.1.below bX, H19.out.2.below bX⟩
          clear bX H19
          go_upto_region 21 with fail
          -- region 21
          have hS21 : Hid (∀ V : World, Wn w V b (.slice ub m uc) (tkL l) q1 q3 q6 (zz rs) (zz r1) (zz kp) (pd : Int) → V.cell? ⟨b, 0, none⟩ = some (.slice ub m uc) ∧ V.cell? ⟨q3, 0, none⟩ = some (.int .i64 0) ∧ V.cell? ⟨q3, 1, none⟩ = some (.int .i64 0) ∧ V.cell? ⟨q3, 2, none⟩ = some (.int .i64 1) ∧ V.cell? ⟨q3, 3, none⟩ = some (.string (zz r1)) ∧ V.cell? ⟨q3, 4, none⟩ = some (.int .i64 0) ∧ V.cell? ⟨q3, 5, none⟩ = some (.int .i64 0) ∧ V.cell? ⟨q3, 6, none⟩ = some (.bool false) ∧ V.cell? ⟨q3, 7, none⟩ = some (.int .i64 0) ∧ V.cell? ⟨q3, 8, none⟩ = some (.int .i64 0) ∧ V.cell? ⟨q3, 9, none⟩ = some (.int .i64 0) ∧ V.cell? ⟨q3, 10, none⟩ = some (.slice none 0 0)) := fun V h => ⟨cell_blk h.tk.blk 0, cell_blk h.g3 0, cell_blk h.g3 1, cell_blk h.g3 2, cell_blk h.g3 3, cell_blk h.g3 4, cell_blk h.g3 5, cell_blk h.g3 6, cell_blk h.g3 7, cell_blk h.g3 8, cell_blk h.g3 9, cell_blk h.g3 10⟩
          have HOw : Hid (∀ V, Wn w V b (.slice ub m uc) (tkL l) q1 q3 q6 (zz rs) (zz r1) (zz kp) (pd : Int) ∧ Lo w V v14 (tkL l ++ [daE (zz rs)]) → Calls Tryz.prog 10 #[(.slice ub m uc)] V fun r V' => ∃ z, r = .returned z ∧ Lo w V' z (tkL l) ∧ (∀ k, z.ownBlock = some k → V.heap.size ≤ k) ∧ Below V.heap.size V V') := fun V h => h.1.own HA.out.2.1 (by have := HLL.out; omega)
          apply cut_rest
          · intro hrest
            have hIW : Wn w V20.drew b (.slice ub m uc) (tkL l) q1 q3 q6 (zz rs) (zz r1) (zz kp) (pd : Int) ∧ Lo w V20.drew v14 (tkL l ++ [daE (zz rs)]) := ⟨H20.out.1.below (Below.refl _ _).drew, H20.out.2.below (Below.refl _ _).drew⟩
            refine wp_region_held_drew (S := (fun V => V.cell? ⟨b, 0, none⟩ = some (.slice ub m uc) ∧ V.cell? ⟨q3, 0, none⟩ = some (.int .i64 0) ∧ V.cell? ⟨q3, 1, none⟩ = some (.int .i64 0) ∧ V.cell? ⟨q3, 2, none⟩ = some (.int .i64 1) ∧ V.cell? ⟨q3, 3, none⟩ = some (.string (zz r1)) ∧ V.cell? ⟨q3, 4, none⟩ = some (.int .i64 0) ∧ V.cell? ⟨q3, 5, none⟩ = some (.int .i64 0) ∧ V.cell? ⟨q3, 6, none⟩ = some (.bool false) ∧ V.cell? ⟨q3, 7, none⟩ = some (.int .i64 0) ∧ V.cell? ⟨q3, 8, none⟩ = some (.int .i64 0) ∧ V.cell? ⟨q3, 9, none⟩ = some (.int .i64 0) ∧ V.cell? ⟨q3, 10, none⟩ = some (.slice none 0 0))) (by kernel_rfl) (hS21.out _ hIW.1) (fun hHeld => ?_)
            generalize hWg : World.drew _ = X21 at hIW hHeld ⊢
            clear hWg
            have hB0 : Below X21.heap.size X21 X21 := Below.refl _ _
            have HX := hid hIW
            clear hIW
            refine tkA (i := 0) (oi := ⟨some 102, .move (.tmp 7), 43, "honest.go:207", #[], none⟩) ?_
            try simp only [Act.put, lA, l0, lS]
            refine tkA (i := 1) (oi := ⟨some 103, .nilCheck (.tmp 102), 0, "honest.go:207", #[⟨0, .data⟩], none⟩) ?_
            try simp only [Act.put, lA, l0, lS]
            refine tkA (i := 2) (oi := ⟨some 104, .fieldAddr 46 (.tmp 103) 0, 0, "honest.go:207", #[⟨1, .data⟩], none⟩) ?_
            try simp only [Act.put, lA, l0, lS]
            refine tkA (i := 3) (oi := ⟨some 105, .load 22 (.tmp 104), 22, "honest.go:207", #[⟨2, .data⟩], none⟩) ?_
            try simp only [Act.put, lA, l0, lS]
            refine tkA (i := 5) (oi := ⟨some 107, .load 31 (.tmp 12), 31, "honest.go:207", #[], none⟩) ?_
            try simp only [Act.put, lA, l0, lS]
            refine tkA (i := 6) (oi := ⟨some 108, .build 33 #[(0, .const (.bool true)), (1, .tmp 107)], 33, "honest.go:207", #[⟨5, .data⟩], none⟩) ?_
            try simp only [Act.put, lA, l0, lS]
            refine wpAnyH_ready (rs := [4, 7]) (by kernel_rfl) (by simp) ?_
            refine AllReadyH.cons (o := ⟨some 106, .call { callee := Callee.value (.func 10), args := #[.tmp 105], argTypes := #[22] }, 22, "honest.go:207", #[⟨3, .data⟩], none⟩) rfl (fun K hK => ?_) ?_
            · go_simp
              refine (HOw.out _ ⟨HX.out.1.below hB0, HX.out.2.below hB0⟩).mono ?_
              rintro e' Ya ⟨z0, rfl, lz0, fz, bX⟩
              have hYa := hB0.trans (bX.mono hB0.size)
              have fz0 : Hid (∀ k, z0.ownBlock = some k → X21.heap.size ≤ k) := fun k hk => Nat.le_trans hB0.size (fz k hk)
              have lz := hid lz0
              clear lz0
              clear bX fz hB0
              go_wp2_with fail
              refine hK.out _ _ (hS21.out _ (HX.out.1.below hYa)) (fun hHeld => ?_)
              clear hK K
              try simp only [Act.put, lA, l0, lS]
              refine wpAnyH_ready (rs := [7]) (by kernel_rfl) (by simp) ?_
              refine AllReadyH.cons (o := ⟨some 109, .buildSlice 22 1 #[(0, .tmp 108)], 22, "honest.go:207", #[⟨6, .data⟩], none⟩) rfl (fun K hK => ?_) AllReadyH.nil
              obtain ⟨qv, hqv⟩ : ∃ q, Ya.heap.size = q := ⟨_, rfl⟩
              obtain ⟨Yaa, hV0⟩ : ∃ V, Ya.alloc (.cells #[.bool true, .int .i64 0, .int .i64 0, .int .i64 1, .string (zz r1), .int .i64 0, .int .i64 0, .bool false, .int .i64 0, .int .i64 0, .int .i64 0, .slice none 0 0] 33) = V := ⟨_, rfl⟩
              have bX : Below Ya.heap.size Ya Yaa := by rw [← hV0]; exact bel1 _ _
              have hYaa := hYa.trans (bX.mono hYa.size)
              have gYaa : Yaa.heap[qv]? = some (.cells #[.bool true, .int .i64 0, .int .i64 0, .int .i64 1, .string (zz r1), .int .i64 0, .int .i64 0, .bool false, .int .i64 0, .int .i64 0, .int .i64 0, .slice none 0 0] 33 (0, 0)) := by rw [← hV0, ← hqv, heap_al, if_pos rfl]
              have lzn := hid (lz.out.below bX)
              clear lz
              have lz := lzn
              clear lzn
              clear bX hYa
              go_simp
              go_wp2_with fail
              try rw [hV0]
              try rw [hqv]
              refine hK.out _ _ (hS21.out _ (HX.out.1.below hYaa)) (fun hHeld => ?_)
              clear hK K hV0 hqv
              try simp only [Act.put, lA, l0, lS]
              refine wpAnyH_ready (rs := [8]) (by kernel_rfl) (by simp) ?_
              refine AllReadyH.cons (o := ⟨some 110, .call { callee := Callee.builtin Builtin.append, args := #[.tmp 106, .tmp 109], argTypes := #[22, 22] }, 22, "honest.go:207", #[⟨4, .data⟩, ⟨7, .data⟩, ⟨4, .chain⟩], none⟩) rfl (fun K hK => ?_) AllReadyH.nil
              obtain ⟨z1, Yaaa, hrun, lz10, hG⟩ := lo_app w _ z0 _ lz.out (Nat.le_trans HX.out.1.tk.bel.size hYaa.size) [daE (zz r1)] (fun e he => by rw [List.mem_singleton.1 he]; rfl) qv _ gYaa rfl (by have := HLL.out; simp; omega)
              have lz1 := hid lz10
              clear lz10
              have hYaaa := hYaa.trans (hG.belowB hYaa.size fz0.out)
              clear hG lz hYaa gYaa fz0
              simp only [List.length_cons, List.length_nil, Nat.zero_add] at hrun
              refine step_append_run rfl (.tmp 106) (.tmp 109) 22 22 rfl hrun rfl rfl ?_
              refine hK.out _ _ (hS21.out _ (HX.out.1.below hYaaa)) (fun hHeld => ?_)
              clear hK K hrun
              try simp only [Act.put, lA, l0, lS]
              refine wpAnyH_ready (rs := [9]) (by kernel_rfl) (by simp) ?_
              refine AllReadyH.cons (o := ⟨some 111, .call { callee := Callee.value (.func 9), args := #[.tmp 110, .const (.bool true)], argTypes := #[22, 4] }, 23, "honest.go:207", #[⟨8, .data⟩, ⟨8, .chain⟩], none⟩) rfl (fun K hK => ?_) AllReadyH.nil
              go_simp
              refine (HC2.out _ z1 (HX.out.1.tk.bel.trans (hYaaa.mono HX.out.1.tk.bel.size)) lz1.out).mono ?_
              rintro e' Yaaaa ⟨rfl, bX⟩
              have hYaaaa := hYaaa.trans (bX.mono hYaaa.size)
              clear lz1 bX hYaaa
              go_wp2_with fail
              refine hK.out _ _ (hS21.out _ (HX.out.1.below hYaaaa)) (fun hHeld => ?_)
              clear hK K
              try simp only [Act.put, lA, l0, lS]
              refine tkA (i := 10) (oi := ⟨some 101, .move (.tmp 111), 23, "honest.go:207", #[⟨9, .data⟩], none⟩) ?_
              try simp only [Act.put, lA, l0, lS]
              refine tkA (i := 11) (oi := ⟨some 112, .extract (.tmp 101) 0, 3, "honest.go:207", #[⟨10, .data⟩], none⟩) ?_
              try simp only [Act.put, lA, l0, lS]
              refine tkA (i := 12) (oi := ⟨some 113, .extract (.tmp 101) 1, 2, "honest.go:207", #[⟨10, .data⟩, { on := 13, ground := Ground.gcOnly Departure.lateStores }], none⟩) ?_
              try simp only [Act.put, lA, l0, lS]
              refine tkA (i := 13) (oi := ⟨some 17, .assign (.tmp 112), 3, "honest.go:207", #[⟨11, .data⟩, ⟨9, .chain⟩, ⟨0, .phase⟩, ⟨1, .phase⟩, ⟨2, .phase⟩, ⟨3, .phase⟩, ⟨4, .phase⟩, ⟨5, .phase⟩, ⟨6, .phase⟩, ⟨7, .phase⟩, ⟨8, .phase⟩, ⟨9, .phase⟩, ⟨10, .phase⟩, ⟨11, .phase⟩, { on := 12, ground := Ground.textOnly Departure.lateStores }], none⟩) ?_
              try simp only [Act.put, lA, l0, lS]
              refine tkA (i := 14) (oi := ⟨some 18, .assign (.tmp 113), 2, "honest.go:207", #[⟨12, .data⟩, ⟨13, .chain⟩, ⟨0, .phase⟩, ⟨1, .phase⟩, ⟨2, .phase⟩, ⟨3, .phase⟩, ⟨4, .phase⟩, ⟨5, .phase⟩, ⟨6, .phase⟩, ⟨7, .phase⟩, ⟨8, .phase⟩, ⟨9, .phase⟩, ⟨10, .phase⟩, ⟨11, .phase⟩, ⟨12, .phase⟩, ⟨13, .phase⟩], none⟩) ?_
              try simp only [Act.put, lA, l0, lS]
              refine wpAnyH_done (by kernel_rfl) ?_ _
              have HF : Hid (Wn w Yaaaa b (.slice ub m uc) (tkL l) q1 q3 q6 (zz rs) (zz r1) (zz kp) (pd : Int) ∧ Lo w Yaaaa v14 (tkL l ++ [daE (zz rs)])) := ⟨HX.out.1.below hYaaaa, HX.out.2.below hYaaaa⟩
              clear hHeld hYaaaa HX
              revert HF
              revert Yaaaa
              revert z1
              revert qv
              revert z0
              exact hrest.out
            refine AllReadyH.cons (o := ⟨some 109, .buildSlice 22 1 #[(0, .tmp 108)], 22, "honest.go:207", #[⟨6, .data⟩], none⟩) rfl (fun K hK => ?_) AllReadyH.nil
            obtain ⟨qv, hqv⟩ : ∃ q, X21.heap.size = q := ⟨_, rfl⟩
            obtain ⟨Ya, hV0⟩ : ∃ V, X21.alloc (.cells #[.bool true, .int .i64 0, .int .i64 0, .int .i64 1, .string (zz r1), .int .i64 0, .int .i64 0, .bool false, .int .i64 0, .int .i64 0, .int .i64 0, .slice none 0 0] 33) = V := ⟨_, rfl⟩
            have bX : Below X21.heap.size X21 Ya := by rw [← hV0]; exact bel1 _ _
            have hYa := hB0.trans (bX.mono hB0.size)
            have gYa : Ya.heap[qv]? = some (.cells #[.bool true, .int .i64 0, .int .i64 0, .int .i64 1, .string (zz r1), .int .i64 0, .int .i64 0, .bool false, .int .i64 0, .int .i64 0, .int .i64 0, .slice none 0 0] 33 (0, 0)) := by rw [← hV0, ← hqv, heap_al, if_pos rfl]
            clear bX hB0
            go_simp
            go_wp2_with fail
            try rw [hV0]
            try rw [hqv]
            refine hK.out _ _ (hS21.out _ (HX.out.1.below hYa)) (fun hHeld => ?_)
            clear hK K hV0 hqv
            try simp only [Act.put, lA, l0, lS]
            refine wpAnyH_ready (rs := [4]) (by kernel_rfl) (by simp) ?_
            refine AllReadyH.cons (o := ⟨some 106, .call { callee := Callee.value (.func 10), args := #[.tmp 105], argTypes := #[22] }, 22, "honest.go:207", #[⟨3, .data⟩], none⟩) rfl (fun K hK => ?_) AllReadyH.nil
            go_simp
            refine (HOw.out _ ⟨HX.out.1.below hYa, HX.out.2.below hYa⟩).mono ?_
            rintro e' Yaa ⟨z0, rfl, lz0, fz, bX⟩
            have hYaa := hYa.trans (bX.mono hYa.size)
            have fz0 : Hid (∀ k, z0.ownBlock = some k → X21.heap.size ≤ k) := fun k hk => Nat.le_trans hYa.size (fz k hk)
            have lz := hid lz0
            clear lz0
            have gYaa := (bX.block _ (heap_lt gYa)).trans gYa
            clear gYa
            clear bX fz hYa
            go_wp2_with fail
            refine hK.out _ _ (hS21.out _ (HX.out.1.below hYaa)) (fun hHeld => ?_)
            clear hK K
            try simp only [Act.put, lA, l0, lS]
            refine wpAnyH_ready (rs := [8]) (by kernel_rfl) (by simp) ?_
            refine AllReadyH.cons (o := ⟨some 110, .call { callee := Callee.builtin Builtin.append, args := #[.tmp 106, .tmp 109], argTypes := #[22, 22] }, 22, "honest.go:207", #[⟨4, .data⟩, ⟨7, .data⟩, ⟨4, .chain⟩], none⟩) rfl (fun K hK => ?_) AllReadyH.nil
            obtain ⟨z1, Yaaa, hrun, lz10, hG⟩ := lo_app w _ z0 _ lz.out (Nat.le_trans HX.out.1.tk.bel.size hYaa.size) [daE (zz r1)] (fun e he => by rw [List.mem_singleton.1 he]; rfl) qv _ gYaa rfl (by have := HLL.out; simp; omega)
            have lz1 := hid lz10
            clear lz10
            have hYaaa := hYaa.trans (hG.belowB hYaa.size fz0.out)
            clear hG lz hYaa gYaa fz0
            simp only [List.length_cons, List.length_nil, Nat.zero_add] at hrun
            refine step_append_run rfl (.tmp 106) (.tmp 109) 22 22 rfl hrun rfl rfl ?_
            refine hK.out _ _ (hS21.out _ (HX.out.1.below hYaaa)) (fun hHeld => ?_)
            clear hK K hrun
            try simp only [Act.put, lA, l0, lS]
            refine wpAnyH_ready (rs := [9]) (by kernel_rfl) (by simp) ?_
            refine AllReadyH.cons (o := ⟨some 111, .call { callee := Callee.value (.func 9), args := #[.tmp 110, .const (.bool true)], argTypes := #[22, 4] }, 23, "honest.go:207", #[⟨8, .data⟩, ⟨8, .chain⟩], none⟩) rfl (fun K hK => ?_) AllReadyH.nil
            go_simp
            refine (HC2.out _ z1 (HX.out.1.tk.bel.trans (hYaaa.mono HX.out.1.tk.bel.size)) lz1.out).mono ?_
            rintro e' Yaaaa ⟨rfl, bX⟩
            have hYaaaa := hYaaa.trans (bX.mono hYaaa.size)
            clear lz1 bX hYaaa
            go_wp2_with fail
            refine hK.out _ _ (hS21.out _ (HX.out.1.below hYaaaa)) (fun hHeld => ?_)
            clear hK K
            try simp only [Act.put, lA, l0, lS]
            refine tkA (i := 10) (oi := ⟨some 101, .move (.tmp 111), 23, "honest.go:207", #[⟨9, .data⟩], none⟩) ?_
            try simp only [Act.put, lA, l0, lS]
            refine tkA (i := 11) (oi := ⟨some 112, .extract (.tmp 101) 0, 3, "honest.go:207", #[⟨10, .data⟩], none⟩) ?_
            try simp only [Act.put, lA, l0, lS]
            refine tkA (i := 12) (oi := ⟨some 113, .extract (.tmp 101) 1, 2, "honest.go:207", #[⟨10, .data⟩, { on := 13, ground := Ground.gcOnly Departure.lateStores }], none⟩) ?_
            try simp only [Act.put, lA, l0, lS]
            refine tkA (i := 13) (oi := ⟨some 17, .assign (.tmp 112), 3, "honest.go:207", #[⟨11, .data⟩, ⟨9, .chain⟩, ⟨0, .phase⟩, ⟨1, .phase⟩, ⟨2, .phase⟩, ⟨3, .phase⟩, ⟨4, .phase⟩, ⟨5, .phase⟩, ⟨6, .phase⟩, ⟨7, .phase⟩, ⟨8, .phase⟩, ⟨9, .phase⟩, ⟨10, .phase⟩, ⟨11, .phase⟩, { on := 12, ground := Ground.textOnly Departure.lateStores }], none⟩) ?_
            try simp only [Act.put, lA, l0, lS]
            refine tkA (i := 14) (oi := ⟨some 18, .assign (.tmp 113), 2, "honest.go:207", #[⟨12, .data⟩, ⟨13, .chain⟩, ⟨0, .phase⟩, ⟨1, .phase⟩, ⟨2, .phase⟩, ⟨3, .phase⟩, ⟨4, .phase⟩, ⟨5, .phase⟩, ⟨6, .phase⟩, ⟨7, .phase⟩, ⟨8, .phase⟩, ⟨9, .phase⟩, ⟨10, .phase⟩, ⟨11, .phase⟩, ⟨12, .phase⟩, ⟨13, .phase⟩], none⟩) ?_
            try simp only [Act.put, lA, l0, lS]
            refine wpAnyH_done (by kernel_rfl) ?_ _
            have HF : Hid (Wn w Yaaaa b (.slice ub m uc) (tkL l) q1 q3 q6 (zz rs) (zz r1) (zz kp) (pd : Int) ∧ Lo w Yaaaa v14 (tkL l ++ [daE (zz rs)])) := ⟨HX.out.1.below hYaaaa, HX.out.2.below hYaaaa⟩
            clear hHeld hYaaaa HX
            revert HF
            revert Yaaaa
            revert z1
            revert qv
            revert z0
            exact hrest.out
          · intro z0 qv z1 V21 H21
            clear hS21 HOw H20
            go_upto_region 22 with fail
            -- region 22
            have hS22 : Hid (∀ V : World, Wn w V b (.slice ub m uc) (tkL l) q1 q3 q6 (zz rs) (zz r1) (zz kp) (pd : Int) → V.cell? ⟨b, 0, none⟩ = some (.slice ub m uc) ∧ V.cell? ⟨q3, 0, none⟩ = some (.int .i64 0) ∧ V.cell? ⟨q3, 1, none⟩ = some (.int .i64 0) ∧ V.cell? ⟨q3, 2, none⟩ = some (.int .i64 1) ∧ V.cell? ⟨q3, 3, none⟩ = some (.string (zz r1)) ∧ V.cell? ⟨q3, 4, none⟩ = some (.int .i64 0) ∧ V.cell? ⟨q3, 5, none⟩ = some (.int .i64 0) ∧ V.cell? ⟨q3, 6, none⟩ = some (.bool false) ∧ V.cell? ⟨q3, 7, none⟩ = some (.int .i64 0) ∧ V.cell? ⟨q3, 8, none⟩ = some (.int .i64 0) ∧ V.cell? ⟨q3, 9, none⟩ = some (.int .i64 0) ∧ V.cell? ⟨q3, 10, none⟩ = some (.slice none 0 0)) := fun V h => ⟨cell_blk h.tk.blk 0, cell_blk h.g3 0, cell_blk h.g3 1, cell_blk h.g3 2, cell_blk h.g3 3, cell_blk h.g3 4, cell_blk h.g3 5, cell_blk h.g3 6, cell_blk h.g3 7, cell_blk h.g3 8, cell_blk h.g3 9, cell_blk h.g3 10⟩
            have HOw : Hid (∀ V, Wn w V b (.slice ub m uc) (tkL l) q1 q3 q6 (zz rs) (zz r1) (zz kp) (pd : Int) ∧ Lo w V v14 (tkL l ++ [daE (zz rs)]) → Calls Tryz.prog 10 #[(.slice ub m uc)] V fun r V' => ∃ z, r = .returned z ∧ Lo w V' z (tkL l) ∧ (∀ k, z.ownBlock = some k → V.heap.size ≤ k) ∧ Below V.heap.size V V') := fun V h => h.1.own HA.out.2.1 (by have := HLL.out; omega)
            apply cut_rest
            · intro hrest
              have hIW : Wn w V21.drew b (.slice ub m uc) (tkL l) q1 q3 q6 (zz rs) (zz r1) (zz kp) (pd : Int) ∧ Lo w V21.drew v14 (tkL l ++ [daE (zz rs)]) := ⟨H21.out.1.below (Below.refl _ _).drew, H21.out.2.below (Below.refl _ _).drew⟩
              refine wp_region_held_drew (S := (fun V => V.cell? ⟨b, 0, none⟩ = some (.slice ub m uc) ∧ V.cell? ⟨q3, 0, none⟩ = some (.int .i64 0) ∧ V.cell? ⟨q3, 1, none⟩ = some (.int .i64 0) ∧ V.cell? ⟨q3, 2, none⟩ = some (.int .i64 1) ∧ V.cell? ⟨q3, 3, none⟩ = some (.string (zz r1)) ∧ V.cell? ⟨q3, 4, none⟩ = some (.int .i64 0) ∧ V.cell? ⟨q3, 5, none⟩ = some (.int .i64 0) ∧ V.cell? ⟨q3, 6, none⟩ = some (.bool false) ∧ V.cell? ⟨q3, 7, none⟩ = some (.int .i64 0) ∧ V.cell? ⟨q3, 8, none⟩ = some (.int .i64 0) ∧ V.cell? ⟨q3, 9, none⟩ = some (.int .i64 0) ∧ V.cell? ⟨q3, 10, none⟩ = some (.slice none 0 0))) (by kernel_rfl) (hS22.out _ hIW.1) (fun hHeld => ?_)
              generalize hWg : World.drew _ = X22 at hIW hHeld ⊢
              clear hWg
              have hB0 : Below X22.heap.size X22 X22 := Below.refl _ _
              have HX := hid hIW
              clear hIW
              refine tkA (i := 0) (oi := ⟨some 115, .move (.tmp 7), 43, "honest.go:208", #[], none⟩) ?_
              try simp only [Act.put, lA, l0, lS]
              refine tkA (i := 1) (oi := ⟨some 116, .nilCheck (.tmp 115), 0, "honest.go:208", #[⟨0, .data⟩], none⟩) ?_
              try simp only [Act.put, lA, l0, lS]
              refine tkA (i := 2) (oi := ⟨some 117, .fieldAddr 46 (.tmp 116) 0, 0, "honest.go:208", #[⟨1, .data⟩], none⟩) ?_
              try simp only [Act.put, lA, l0, lS]
              refine tkA (i := 3) (oi := ⟨some 118, .load 22 (.tmp 117), 22, "honest.go:208", #[⟨2, .data⟩], none⟩) ?_
              try simp only [Act.put, lA, l0, lS]
              refine tkA (i := 5) (oi := ⟨some 120, .load 31 (.tmp 12), 31, "honest.go:208", #[], none⟩) ?_
              try simp only [Act.put, lA, l0, lS]
              refine tkA (i := 6) (oi := ⟨some 121, .build 33 #[(0, .const (.bool true)), (1, .tmp 120)], 33, "honest.go:208", #[⟨5, .data⟩], none⟩) ?_
              try simp only [Act.put, lA, l0, lS]
              refine wpAnyH_ready (rs := [4, 7]) (by kernel_rfl) (by simp) ?_
              refine AllReadyH.cons (o := ⟨some 119, .call { callee := Callee.value (.func 10), args := #[.tmp 118], argTypes := #[22] }, 22, "honest.go:208", #[⟨3, .data⟩], none⟩) rfl (fun K hK => ?_) ?_
              · go_simp
                refine (HOw.out _ ⟨HX.out.1.below hB0, HX.out.2.below hB0⟩).mono ?_
                rintro e' Ya ⟨z0, rfl, lz0, fz, bX⟩
                have hYa := hB0.trans (bX.mono hB0.size)
                have fz0 : Hid (∀ k, z0.ownBlock = some k → X22.heap.size ≤ k) := fun k hk => Nat.le_trans hB0.size (fz k hk)
                have lz := hid lz0
                clear lz0
                clear bX fz hB0
                go_wp2_with fail
                refine hK.out _ _ (hS22.out _ (HX.out.1.below hYa)) (fun hHeld => ?_)
                clear hK K
                try simp only [Act.put, lA, l0, lS]
                refine wpAnyH_ready (rs := [7]) (by kernel_rfl) (by simp) ?_
                refine AllReadyH.cons (o := ⟨some 122, .buildSlice 22 1 #[(0, .tmp 121)], 22, "honest.go:208", #[⟨6, .data⟩], none⟩) rfl (fun K hK => ?_) AllReadyH.nil
                obtain ⟨qv, hqv⟩ : ∃ q, Ya.heap.size = q := ⟨_, rfl⟩
                obtain ⟨Yaa, hV0⟩ : ∃ V, Ya.alloc (.cells #[.bool true, .int .i64 0, .int .i64 0, .int .i64 1, .string (zz r1), .int .i64 0, .int .i64 0, .bool false, .int .i64 0, .int .i64 0, .int .i64 0, .slice none 0 0] 33) = V := ⟨_, rfl⟩
                have bX : Below Ya.heap.size Ya Yaa := by rw [← hV0]; exact bel1 _ _
                have hYaa := hYa.trans (bX.mono hYa.size)
                have gYaa : Yaa.heap[qv]? = some (.cells #[.bool true, .int .i64 0, .int .i64 0, .int .i64 1, .string (zz r1), .int .i64 0, .int .i64 0, .bool false, .int .i64 0, .int .i64 0, .int .i64 0, .slice none 0 0] 33 (0, 0)) := by rw [← hV0, ← hqv, heap_al, if_pos rfl]
                have lzn := hid (lz.out.below bX)
                clear lz
                have lz := lzn
                clear lzn
                clear bX hYa
                go_simp
                go_wp2_with fail
                try rw [hV0]
                try rw [hqv]
                refine hK.out _ _ (hS22.out _ (HX.out.1.below hYaa)) (fun hHeld => ?_)
                clear hK K hV0 hqv
                try simp only [Act.put, lA, l0, lS]
                refine wpAnyH_ready (rs := [8]) (by kernel_rfl) (by simp) ?_
                refine AllReadyH.cons (o := ⟨some 123, .call { callee := Callee.builtin Builtin.append, args := #[.tmp 119, .tmp 122], argTypes := #[22, 22] }, 22, "honest.go:208", #[⟨4, .data⟩, ⟨7, .data⟩, ⟨4, .chain⟩], none⟩) rfl (fun K hK => ?_) AllReadyH.nil
                obtain ⟨z1, Yaaa, hrun, lz10, hG⟩ := lo_app w _ z0 _ lz.out (Nat.le_trans HX.out.1.tk.bel.size hYaa.size) [daE (zz r1)] (fun e he => by rw [List.mem_singleton.1 he]; rfl) qv _ gYaa rfl (by have := HLL.out; simp; omega)
                have lz1 := hid lz10
                clear lz10
                have hYaaa := hYaa.trans (hG.belowB hYaa.size fz0.out)
                clear hG lz hYaa gYaa fz0
                simp only [List.length_cons, List.length_nil, Nat.zero_add] at hrun
                refine step_append_run rfl (.tmp 119) (.tmp 122) 22 22 rfl hrun rfl rfl ?_
                refine hK.out _ _ (hS22.out _ (HX.out.1.below hYaaa)) (fun hHeld => ?_)
                clear hK K hrun
                try simp only [Act.put, lA, l0, lS]
                refine wpAnyH_ready (rs := [9]) (by kernel_rfl) (by simp) ?_
                refine AllReadyH.cons (o := ⟨some 124, .call { callee := Callee.value (.func 19), args := #[.tmp 123], argTypes := #[22] }, 22, "honest.go:208", #[⟨8, .data⟩, ⟨8, .chain⟩], none⟩) rfl (fun K hK => ?_) AllReadyH.nil
                go_simp
                refine (lo_turn w _ z1 _ lz1.out (Nat.le_trans HX.out.1.tk.bel.size hYaaa.size) HA.out.2.2.2.1 (by have := HLL.out; simp; omega)).mono ?_
                rintro e' Yaaaa ⟨z2, rfl, lz20, bX⟩
                have hYaaaa := hYaaa.trans (bX.mono hYaaa.size)
                have lz2 := hid lz20
                clear lz20 lz1 bX hYaaa
                go_wp2_with fail
                refine hK.out _ _ (hS22.out _ (HX.out.1.below hYaaaa)) (fun hHeld => ?_)
                clear hK K
                try simp only [Act.put, lA, l0, lS]
                refine wpAnyH_ready (rs := [10]) (by kernel_rfl) (by simp) ?_
                refine AllReadyH.cons (o := ⟨some 125, .call { callee := Callee.value (.func 9), args := #[.tmp 124, .const (.bool false)], argTypes := #[22, 4] }, 23, "honest.go:208", #[⟨9, .data⟩, ⟨9, .chain⟩], none⟩) rfl (fun K hK => ?_) AllReadyH.nil
                go_simp
                refine (HC3.out _ z2 (HX.out.1.tk.bel.trans (hYaaaa.mono HX.out.1.tk.bel.size)) lz2.out).mono ?_
                rintro e' Yaaaaa ⟨rfl, bX⟩
                have hYaaaaa := hYaaaa.trans (bX.mono hYaaaa.size)
                clear lz2 bX hYaaaa
                go_wp2_with fail
                refine hK.out _ _ (hS22.out _ (HX.out.1.below hYaaaaa)) (fun hHeld => ?_)
                clear hK K
                try simp only [Act.put, lA, l0, lS]
                refine tkA (i := 11) (oi := ⟨some 114, .move (.tmp 125), 23, "honest.go:208", #[⟨10, .data⟩], none⟩) ?_
                try simp only [Act.put, lA, l0, lS]
                refine tkA (i := 12) (oi := ⟨some 126, .extract (.tmp 114) 0, 3, "honest.go:208", #[⟨11, .data⟩], none⟩) ?_
                try simp only [Act.put, lA, l0, lS]
                refine tkA (i := 13) (oi := ⟨some 127, .extract (.tmp 114) 1, 2, "honest.go:208", #[⟨11, .data⟩, { on := 14, ground := Ground.gcOnly Departure.lateStores }], none⟩) ?_
                try simp only [Act.put, lA, l0, lS]
                refine tkA (i := 14) (oi := ⟨some 19, .assign (.tmp 126), 3, "honest.go:208", #[⟨12, .data⟩, ⟨10, .chain⟩, ⟨0, .phase⟩, ⟨1, .phase⟩, ⟨2, .phase⟩, ⟨3, .phase⟩, ⟨4, .phase⟩, ⟨5, .phase⟩, ⟨6, .phase⟩, ⟨7, .phase⟩, ⟨8, .phase⟩, ⟨9, .phase⟩, ⟨10, .phase⟩, ⟨11, .phase⟩, ⟨12, .phase⟩, { on := 13, ground := Ground.textOnly Departure.lateStores }], none⟩) ?_
                try simp only [Act.put, lA, l0, lS]
                refine tkA (i := 15) (oi := ⟨some 20, .assign (.tmp 127), 2, "honest.go:208", #[⟨13, .data⟩, ⟨14, .chain⟩, ⟨0, .phase⟩, ⟨1, .phase⟩, ⟨2, .phase⟩, ⟨3, .phase⟩, ⟨4, .phase⟩, ⟨5, .phase⟩, ⟨6, .phase⟩, ⟨7, .phase⟩, ⟨8, .phase⟩, ⟨9, .phase⟩, ⟨10, .phase⟩, ⟨11, .phase⟩, ⟨12, .phase⟩, ⟨13, .phase⟩, ⟨14, .phase⟩], none⟩) ?_
                try simp only [Act.put, lA, l0, lS]
                refine wpAnyH_done (by kernel_rfl) ?_ _
                have HF : Hid (Wn w Yaaaaa b (.slice ub m uc) (tkL l) q1 q3 q6 (zz rs) (zz r1) (zz kp) (pd : Int) ∧ Lo w Yaaaaa v14 (tkL l ++ [daE (zz rs)])) := ⟨HX.out.1.below hYaaaaa, HX.out.2.below hYaaaaa⟩
                clear hHeld hYaaaaa HX
                revert HF
                revert Yaaaaa
                revert z2
                revert z1
                revert qv
                revert z0
                exact hrest.out
              refine AllReadyH.cons (o := ⟨some 122, .buildSlice 22 1 #[(0, .tmp 121)], 22, "honest.go:208", #[⟨6, .data⟩], none⟩) rfl (fun K hK => ?_) AllReadyH.nil
              obtain ⟨qv, hqv⟩ : ∃ q, X22.heap.size = q := ⟨_, rfl⟩
              obtain ⟨Ya, hV0⟩ : ∃ V, X22.alloc (.cells #[.bool true, .int .i64 0, .int .i64 0, .int .i64 1, .string (zz r1), .int .i64 0, .int .i64 0, .bool false, .int .i64 0, .int .i64 0, .int .i64 0, .slice none 0 0] 33) = V := ⟨_, rfl⟩
              have bX : Below X22.heap.size X22 Ya := by rw [← hV0]; exact bel1 _ _
              have hYa := hB0.trans (bX.mono hB0.size)
              have gYa : Ya.heap[qv]? = some (.cells #[.bool true, .int .i64 0, .int .i64 0, .int .i64 1, .string (zz r1), .int .i64 0, .int .i64 0, .bool false, .int .i64 0, .int .i64 0, .int .i64 0, .slice none 0 0] 33 (0, 0)) := by rw [← hV0, ← hqv, heap_al, if_pos rfl]
              clear bX hB0
              go_simp
              go_wp2_with fail
              try rw [hV0]
              try rw [hqv]
              refine hK.out _ _ (hS22.out _ (HX.out.1.below hYa)) (fun hHeld => ?_)
              clear hK K hV0 hqv
              try simp only [Act.put, lA, l0, lS]
              refine wpAnyH_ready (rs := [4]) (by kernel_rfl) (by simp) ?_
              refine AllReadyH.cons (o := ⟨some 119, .call { callee := Callee.value (.func 10), args := #[.tmp 118], argTypes := #[22] }, 22, "honest.go:208", #[⟨3, .data⟩], none⟩) rfl (fun K hK => ?_) AllReadyH.nil
              go_simp
              refine (HOw.out _ ⟨HX.out.1.below hYa, HX.out.2.below hYa⟩).mono ?_
              rintro e' Yaa ⟨z0, rfl, lz0, fz, bX⟩
              have hYaa := hYa.trans (bX.mono hYa.size)
              have fz0 : Hid (∀ k, z0.ownBlock = some k → X22.heap.size ≤ k) := fun k hk => Nat.le_trans hYa.size (fz k hk)
              have lz := hid lz0
              clear lz0
              have gYaa := (bX.block _ (heap_lt gYa)).trans gYa
              clear gYa
              clear bX fz hYa
              go_wp2_with fail
              refine hK.out _ _ (hS22.out _ (HX.out.1.below hYaa)) (fun hHeld => ?_)
              clear hK K
              try simp only [Act.put, lA, l0, lS]
              refine wpAnyH_ready (rs := [8]) (by kernel_rfl) (by simp) ?_
              refine AllReadyH.cons (o := ⟨some 123, .call { callee := Callee.builtin Builtin.append, args := #[.tmp 119, .tmp 122], argTypes := #[22, 22] }, 22, "honest.go:208", #[⟨4, .data⟩, ⟨7, .data⟩, ⟨4, .chain⟩], none⟩) rfl (fun K hK => ?_) AllReadyH.nil
              obtain ⟨z1, Yaaa, hrun, lz10, hG⟩ := lo_app w _ z0 _ lz.out (Nat.le_trans HX.out.1.tk.bel.size hYaa.size) [daE (zz r1)] (fun e he => by rw [List.mem_singleton.1 he]; rfl) qv _ gYaa rfl (by have := HLL.out; simp; omega)
              have lz1 := hid lz10
              clear lz10
              have hYaaa := hYaa.trans (hG.belowB hYaa.size fz0.out)
              clear hG lz hYaa gYaa fz0
              simp only [List.length_cons, List.length_nil, Nat.zero_add] at hrun
              refine step_append_run rfl (.tmp 119) (.tmp 122) 22 22 rfl hrun rfl rfl ?_
              refine hK.out _ _ (hS22.out _ (HX.out.1.below hYaaa)) (fun hHeld => ?_)
              clear hK K hrun
              try simp only [Act.put, lA, l0, lS]
              refine wpAnyH_ready (rs := [9]) (by kernel_rfl) (by simp) ?_
              refine AllReadyH.cons (o := ⟨some 124, .call { callee := Callee.value (.func 19), args := #[.tmp 123], argTypes := #[22] }, 22, "honest.go:208", #[⟨8, .data⟩, ⟨8, .chain⟩], none⟩) rfl (fun K hK => ?_) AllReadyH.nil
              go_simp
              refine (lo_turn w _ z1 _ lz1.out (Nat.le_trans HX.out.1.tk.bel.size hYaaa.size) HA.out.2.2.2.1 (by have := HLL.out; simp; omega)).mono ?_
              rintro e' Yaaaa ⟨z2, rfl, lz20, bX⟩
              have hYaaaa := hYaaa.trans (bX.mono hYaaa.size)
              have lz2 := hid lz20
              clear lz20 lz1 bX hYaaa
              go_wp2_with fail
              refine hK.out _ _ (hS22.out _ (HX.out.1.below hYaaaa)) (fun hHeld => ?_)
              clear hK K
              try simp only [Act.put, lA, l0, lS]
              refine wpAnyH_ready (rs := [10]) (by kernel_rfl) (by simp) ?_
              refine AllReadyH.cons (o := ⟨some 125, .call { callee := Callee.value (.func 9), args := #[.tmp 124, .const (.bool false)], argTypes := #[22, 4] }, 23, "honest.go:208", #[⟨9, .data⟩, ⟨9, .chain⟩], none⟩) rfl (fun K hK => ?_) AllReadyH.nil
              go_simp
              refine (HC3.out _ z2 (HX.out.1.tk.bel.trans (hYaaaa.mono HX.out.1.tk.bel.size)) lz2.out).mono ?_
              rintro e' Yaaaaa ⟨rfl, bX⟩
              have hYaaaaa := hYaaaa.trans (bX.mono hYaaaa.size)
              clear lz2 bX hYaaaa
              go_wp2_with fail
              refine hK.out _ _ (hS22.out _ (HX.out.1.below hYaaaaa)) (fun hHeld => ?_)
              clear hK K
              try simp only [Act.put, lA, l0, lS]
              refine tkA (i := 11) (oi := ⟨some 114, .move (.tmp 125), 23, "honest.go:208", #[⟨10, .data⟩], none⟩) ?_
              try simp only [Act.put, lA, l0, lS]
              refine tkA (i := 12) (oi := ⟨some 126, .extract (.tmp 114) 0, 3, "honest.go:208", #[⟨11, .data⟩], none⟩) ?_
              try simp only [Act.put, lA, l0, lS]
              refine tkA (i := 13) (oi := ⟨some 127, .extract (.tmp 114) 1, 2, "honest.go:208", #[⟨11, .data⟩, { on := 14, ground := Ground.gcOnly Departure.lateStores }], none⟩) ?_
              try simp only [Act.put, lA, l0, lS]
              refine tkA (i := 14) (oi := ⟨some 19, .assign (.tmp 126), 3, "honest.go:208", #[⟨12, .data⟩, ⟨10, .chain⟩, ⟨0, .phase⟩, ⟨1, .phase⟩, ⟨2, .phase⟩, ⟨3, .phase⟩, ⟨4, .phase⟩, ⟨5, .phase⟩, ⟨6, .phase⟩, ⟨7, .phase⟩, ⟨8, .phase⟩, ⟨9, .phase⟩, ⟨10, .phase⟩, ⟨11, .phase⟩, ⟨12, .phase⟩, { on := 13, ground := Ground.textOnly Departure.lateStores }], none⟩) ?_
              try simp only [Act.put, lA, l0, lS]
              refine tkA (i := 15) (oi := ⟨some 20, .assign (.tmp 127), 2, "honest.go:208", #[⟨13, .data⟩, ⟨14, .chain⟩, ⟨0, .phase⟩, ⟨1, .phase⟩, ⟨2, .phase⟩, ⟨3, .phase⟩, ⟨4, .phase⟩, ⟨5, .phase⟩, ⟨6, .phase⟩, ⟨7, .phase⟩, ⟨8, .phase⟩, ⟨9, .phase⟩, ⟨10, .phase⟩, ⟨11, .phase⟩, ⟨12, .phase⟩, ⟨13, .phase⟩, ⟨14, .phase⟩], none⟩) ?_
              try simp only [Act.put, lA, l0, lS]
              refine wpAnyH_done (by kernel_rfl) ?_ _
              have HF : Hid (Wn w Yaaaaa b (.slice ub m uc) (tkL l) q1 q3 q6 (zz rs) (zz r1) (zz kp) (pd : Int) ∧ Lo w Yaaaaa v14 (tkL l ++ [daE (zz rs)])) := ⟨HX.out.1.below hYaaaaa, HX.out.2.below hYaaaaa⟩
              clear hHeld hYaaaaa HX
              revert HF
              revert Yaaaaa
              revert z2
              revert z1
              revert qv
              revert z0
              exact hrest.out
            · intro z0 qv z1 z2 V22 H22
              clear hS22 HOw H21
              go_upto_region 23 with fail
              -- region 23
              have hS23 : Hid (∀ V : World, Wn w V b (.slice ub m uc) (tkL l) q1 q3 q6 (zz rs) (zz r1) (zz kp) (pd : Int) → V.cell? ⟨b, 0, none⟩ = some (.slice ub m uc) ∧ V.cell? ⟨q6, 0, none⟩ = some (.int .i64 0) ∧ V.cell? ⟨q6, 1, none⟩ = some (.int .i64 8) ∧ V.cell? ⟨q6, 2, none⟩ = some (.int .i64 1) ∧ V.cell? ⟨q6, 3, none⟩ = some (.string (zz kp)) ∧ V.cell? ⟨q6, 4, none⟩ = some (.int .i64 (pd : Int)) ∧ V.cell? ⟨q6, 5, none⟩ = some (.int .i64 0) ∧ V.cell? ⟨q6, 6, none⟩ = some (.bool false) ∧ V.cell? ⟨q6, 7, none⟩ = some (.int .i64 0) ∧ V.cell? ⟨q6, 8, none⟩ = some (.int .i64 0) ∧ V.cell? ⟨q6, 9, none⟩ = some (.int .i64 0) ∧ V.cell? ⟨q6, 10, none⟩ = some (.slice none 0 0)) := fun V h => ⟨cell_blk h.tk.blk 0, cell_blk h.g6 0, cell_blk h.g6 1, cell_blk h.g6 2, cell_blk h.g6 3, cell_blk h.g6 4, cell_blk h.g6 5, cell_blk h.g6 6, cell_blk h.g6 7, cell_blk h.g6 8, cell_blk h.g6 9, cell_blk h.g6 10⟩
              have HOw : Hid (∀ V, Wn w V b (.slice ub m uc) (tkL l) q1 q3 q6 (zz rs) (zz r1) (zz kp) (pd : Int) ∧ Lo w V v14 (tkL l ++ [daE (zz rs)]) → Calls Tryz.prog 10 #[(.slice ub m uc)] V fun r V' => ∃ z, r = .returned z ∧ Lo w V' z (tkL l) ∧ (∀ k, z.ownBlock = some k → V.heap.size ≤ k) ∧ Below V.heap.size V V') := fun V h => h.1.own HA.out.2.1 (by have := HLL.out; omega)
              apply cut_rest
              · intro hrest
                have hIW : Wn w V22.drew b (.slice ub m uc) (tkL l) q1 q3 q6 (zz rs) (zz r1) (zz kp) (pd : Int) ∧ Lo w V22.drew v14 (tkL l ++ [daE (zz rs)]) := ⟨H22.out.1.below (Below.refl _ _).drew, H22.out.2.below (Below.refl _ _).drew⟩
                refine wp_region_held_drew (S := (fun V => V.cell? ⟨b, 0, none⟩ = some (.slice ub m uc) ∧ V.cell? ⟨q6, 0, none⟩ = some (.int .i64 0) ∧ V.cell? ⟨q6, 1, none⟩ = some (.int .i64 8) ∧ V.cell? ⟨q6, 2, none⟩ = some (.int .i64 1) ∧ V.cell? ⟨q6, 3, none⟩ = some (.string (zz kp)) ∧ V.cell? ⟨q6, 4, none⟩ = some (.int .i64 (pd : Int)) ∧ V.cell? ⟨q6, 5, none⟩ = some (.int .i64 0) ∧ V.cell? ⟨q6, 6, none⟩ = some (.bool false) ∧ V.cell? ⟨q6, 7, none⟩ = some (.int .i64 0) ∧ V.cell? ⟨q6, 8, none⟩ = some (.int .i64 0) ∧ V.cell? ⟨q6, 9, none⟩ = some (.int .i64 0) ∧ V.cell? ⟨q6, 10, none⟩ = some (.slice none 0 0))) (by kernel_rfl) (hS23.out _ hIW.1) (fun hHeld => ?_)
                generalize hWg : World.drew _ = X23 at hIW hHeld ⊢
                clear hWg
                have hB0 : Below X23.heap.size X23 X23 := Below.refl _ _
                have HX := hid hIW
                clear hIW
                refine tkA (i := 0) (oi := ⟨some 129, .move (.tmp 7), 43, "honest.go:209", #[], none⟩) ?_
                try simp only [Act.put, lA, l0, lS]
                refine tkA (i := 1) (oi := ⟨some 130, .nilCheck (.tmp 129), 0, "honest.go:209", #[⟨0, .data⟩], none⟩) ?_
                try simp only [Act.put, lA, l0, lS]
                refine tkA (i := 2) (oi := ⟨some 131, .fieldAddr 46 (.tmp 130) 0, 0, "honest.go:209", #[⟨1, .data⟩], none⟩) ?_
                try simp only [Act.put, lA, l0, lS]
                refine tkA (i := 3) (oi := ⟨some 132, .load 22 (.tmp 131), 22, "honest.go:209", #[⟨2, .data⟩], none⟩) ?_
                try simp only [Act.put, lA, l0, lS]
                refine tkA (i := 5) (oi := ⟨some 134, .load 31 (.tmp 13), 31, "honest.go:209", #[], none⟩) ?_
                try simp only [Act.put, lA, l0, lS]
                refine tkA (i := 6) (oi := ⟨some 135, .build 33 #[(0, .const (.bool true)), (1, .tmp 134)], 33, "honest.go:209", #[⟨5, .data⟩], none⟩) ?_
                try simp only [Act.put, lA, l0, lS]
                refine wpAnyH_ready (rs := [4, 7]) (by kernel_rfl) (by simp) ?_
                refine AllReadyH.cons (o := ⟨some 133, .call { callee := Callee.value (.func 10), args := #[.tmp 132], argTypes := #[22] }, 22, "honest.go:209", #[⟨3, .data⟩], none⟩) rfl (fun K hK => ?_) ?_
                · go_simp
                  refine (HOw.out _ ⟨HX.out.1.below hB0, HX.out.2.below hB0⟩).mono ?_
                  rintro e' Ya ⟨z0, rfl, lz0, fz, bX⟩
                  have hYa := hB0.trans (bX.mono hB0.size)
                  have fz0 : Hid (∀ k, z0.ownBlock = some k → X23.heap.size ≤ k) := fun k hk => Nat.le_trans hB0.size (fz k hk)
                  have lz := hid lz0
                  clear lz0
                  clear bX fz hB0
                  go_wp2_with fail
                  refine hK.out _ _ (hS23.out _ (HX.out.1.below hYa)) (fun hHeld => ?_)
                  clear hK K
                  try simp only [Act.put, lA, l0, lS]
                  refine wpAnyH_ready (rs := [7]) (by kernel_rfl) (by simp) ?_
                  refine AllReadyH.cons (o := ⟨some 136, .buildSlice 22 1 #[(0, .tmp 135)], 22, "honest.go:209", #[⟨6, .data⟩], none⟩) rfl (fun K hK => ?_) AllReadyH.nil
                  obtain ⟨qv, hqv⟩ : ∃ q, Ya.heap.size = q := ⟨_, rfl⟩
                  obtain ⟨Yaa, hV0⟩ : ∃ V, Ya.alloc (.cells #[.bool true, .int .i64 0, .int .i64 8, .int .i64 1, .string (zz kp), .int .i64 (pd : Int), .int .i64 0, .bool false, .int .i64 0, .int .i64 0, .int .i64 0, .slice none 0 0] 33) = V := ⟨_, rfl⟩
                  have bX : Below Ya.heap.size Ya Yaa := by rw [← hV0]; exact bel1 _ _
                  have hYaa := hYa.trans (bX.mono hYa.size)
                  have gYaa : Yaa.heap[qv]? = some (.cells #[.bool true, .int .i64 0, .int .i64 8, .int .i64 1, .string (zz kp), .int .i64 (pd : Int), .int .i64 0, .bool false, .int .i64 0, .int .i64 0, .int .i64 0, .slice none 0 0] 33 (0, 0)) := by rw [← hV0, ← hqv, heap_al, if_pos rfl]
                  have lzn := hid (lz.out.below bX)
                  clear lz
                  have lz := lzn
                  clear lzn
                  clear bX hYa
                  go_simp
                  go_wp2_with fail
                  try rw [hV0]
                  try rw [hqv]
                  refine hK.out _ _ (hS23.out _ (HX.out.1.below hYaa)) (fun hHeld => ?_)
                  clear hK K hV0 hqv
                  try simp only [Act.put, lA, l0, lS]
                  refine wpAnyH_ready (rs := [8]) (by kernel_rfl) (by simp) ?_
                  refine AllReadyH.cons (o := ⟨some 137, .call { callee := Callee.builtin Builtin.append, args := #[.tmp 133, .tmp 136], argTypes := #[22, 22] }, 22, "honest.go:209", #[⟨4, .data⟩, ⟨7, .data⟩, ⟨4, .chain⟩], none⟩) rfl (fun K hK => ?_) AllReadyH.nil
                  obtain ⟨z1, Yaaa, hrun, lz10, hG⟩ := lo_app w _ z0 _ lz.out (Nat.le_trans HX.out.1.tk.bel.size hYaa.size) [paE (zz kp) (pd : Int)] (fun e he => by rw [List.mem_singleton.1 he]; rfl) qv _ gYaa rfl (by have := HLL.out; simp; omega)
                  have lz1 := hid lz10
                  clear lz10
                  have hYaaa := hYaa.trans (hG.belowB hYaa.size fz0.out)
                  clear hG lz hYaa gYaa fz0
                  simp only [List.length_cons, List.length_nil, Nat.zero_add] at hrun
                  refine step_append_run rfl (.tmp 133) (.tmp 136) 22 22 rfl hrun rfl rfl ?_
                  refine hK.out _ _ (hS23.out _ (HX.out.1.below hYaaa)) (fun hHeld => ?_)
                  clear hK K hrun
                  try simp only [Act.put, lA, l0, lS]
                  refine wpAnyH_ready (rs := [9]) (by kernel_rfl) (by simp) ?_
                  refine AllReadyH.cons (o := ⟨some 138, .call { callee := Callee.value (.func 9), args := #[.tmp 137, .const (.bool true)], argTypes := #[22, 4] }, 23, "honest.go:209", #[⟨8, .data⟩, ⟨8, .chain⟩], none⟩) rfl (fun K hK => ?_) AllReadyH.nil
                  go_simp
                  refine (HC4.out _ z1 (HX.out.1.tk.bel.trans (hYaaa.mono HX.out.1.tk.bel.size)) lz1.out).mono ?_
                  rintro e' Yaaaa ⟨rfl, bX⟩
                  have hYaaaa := hYaaa.trans (bX.mono hYaaa.size)
                  clear lz1 bX hYaaa
                  go_wp2_with fail
                  refine hK.out _ _ (hS23.out _ (HX.out.1.below hYaaaa)) (fun hHeld => ?_)
                  clear hK K
                  try simp only [Act.put, lA, l0, lS]
                  refine tkA (i := 10) (oi := ⟨some 128, .move (.tmp 138), 23, "honest.go:209", #[⟨9, .data⟩], none⟩) ?_
                  try simp only [Act.put, lA, l0, lS]
                  refine tkA (i := 11) (oi := ⟨some 139, .extract (.tmp 128) 0, 3, "honest.go:209", #[⟨10, .data⟩], none⟩) ?_
                  try simp only [Act.put, lA, l0, lS]
                  refine tkA (i := 12) (oi := ⟨some 140, .extract (.tmp 128) 1, 2, "honest.go:209", #[⟨10, .data⟩, { on := 13, ground := Ground.gcOnly Departure.lateStores }], none⟩) ?_
                  try simp only [Act.put, lA, l0, lS]
                  refine tkA (i := 13) (oi := ⟨some 21, .assign (.tmp 139), 3, "honest.go:209", #[⟨11, .data⟩, ⟨9, .chain⟩, ⟨0, .phase⟩, ⟨1, .phase⟩, ⟨2, .phase⟩, ⟨3, .phase⟩, ⟨4, .phase⟩, ⟨5, .phase⟩, ⟨6, .phase⟩, ⟨7, .phase⟩, ⟨8, .phase⟩, ⟨9, .phase⟩, ⟨10, .phase⟩, ⟨11, .phase⟩, { on := 12, ground := Ground.textOnly Departure.lateStores }], none⟩) ?_
                  try simp only [Act.put, lA, l0, lS]
                  refine tkA (i := 14) (oi := ⟨some 22, .assign (.tmp 140), 2, "honest.go:209", #[⟨12, .data⟩, ⟨13, .chain⟩, ⟨0, .phase⟩, ⟨1, .phase⟩, ⟨2, .phase⟩, ⟨3, .phase⟩, ⟨4, .phase⟩, ⟨5, .phase⟩, ⟨6, .phase⟩, ⟨7, .phase⟩, ⟨8, .phase⟩, ⟨9, .phase⟩, ⟨10, .phase⟩, ⟨11, .phase⟩, ⟨12, .phase⟩, ⟨13, .phase⟩], none⟩) ?_
                  try simp only [Act.put, lA, l0, lS]
                  refine wpAnyH_done (by kernel_rfl) ?_ _
                  have HF : Hid (Wn w Yaaaa b (.slice ub m uc) (tkL l) q1 q3 q6 (zz rs) (zz r1) (zz kp) (pd : Int) ∧ Lo w Yaaaa v14 (tkL l ++ [daE (zz rs)])) := ⟨HX.out.1.below hYaaaa, HX.out.2.below hYaaaa⟩
                  clear hHeld hYaaaa HX
                  revert HF
                  revert Yaaaa
                  revert z1
                  revert qv
                  revert z0
                  exact hrest.out
                refine AllReadyH.cons (o := ⟨some 136, .buildSlice 22 1 #[(0, .tmp 135)], 22, "honest.go:209", #[⟨6, .data⟩], none⟩) rfl (fun K hK => ?_) AllReadyH.nil
                obtain ⟨qv, hqv⟩ : ∃ q, X23.heap.size = q := ⟨_, rfl⟩
                obtain ⟨Ya, hV0⟩ : ∃ V, X23.alloc (.cells #[.bool true, .int .i64 0, .int .i64 8, .int .i64 1, .string (zz kp), .int .i64 (pd : Int), .int .i64 0, .bool false, .int .i64 0, .int .i64 0, .int .i64 0, .slice none 0 0] 33) = V := ⟨_, rfl⟩
                have bX : Below X23.heap.size X23 Ya := by rw [← hV0]; exact bel1 _ _
                have hYa := hB0.trans (bX.mono hB0.size)
                have gYa : Ya.heap[qv]? = some (.cells #[.bool true, .int .i64 0, .int .i64 8, .int .i64 1, .string (zz kp), .int .i64 (pd : Int), .int .i64 0, .bool false, .int .i64 0, .int .i64 0, .int .i64 0, .slice none 0 0] 33 (0, 0)) := by rw [← hV0, ← hqv, heap_al, if_pos rfl]
                clear bX hB0
                go_simp
                go_wp2_with fail
                try rw [hV0]
                try rw [hqv]
                refine hK.out _ _ (hS23.out _ (HX.out.1.below hYa)) (fun hHeld => ?_)
                clear hK K hV0 hqv
                try simp only [Act.put, lA, l0, lS]
                refine wpAnyH_ready (rs := [4]) (by kernel_rfl) (by simp) ?_
                refine AllReadyH.cons (o := ⟨some 133, .call { callee := Callee.value (.func 10), args := #[.tmp 132], argTypes := #[22] }, 22, "honest.go:209", #[⟨3, .data⟩], none⟩) rfl (fun K hK => ?_) AllReadyH.nil
                go_simp
                refine (HOw.out _ ⟨HX.out.1.below hYa, HX.out.2.below hYa⟩).mono ?_
                rintro e' Yaa ⟨z0, rfl, lz0, fz, bX⟩
                have hYaa := hYa.trans (bX.mono hYa.size)
                have fz0 : Hid (∀ k, z0.ownBlock = some k → X23.heap.size ≤ k) := fun k hk => Nat.le_trans hYa.size (fz k hk)
                have lz := hid lz0
                clear lz0
                have gYaa := (bX.block _ (heap_lt gYa)).trans gYa
                clear gYa
                clear bX fz hYa
                go_wp2_with fail
                refine hK.out _ _ (hS23.out _ (HX.out.1.below hYaa)) (fun hHeld => ?_)
                clear hK K
                try simp only [Act.put, lA, l0, lS]
                refine wpAnyH_ready (rs := [8]) (by kernel_rfl) (by simp) ?_
                refine AllReadyH.cons (o := ⟨some 137, .call { callee := Callee.builtin Builtin.append, args := #[.tmp 133, .tmp 136], argTypes := #[22, 22] }, 22, "honest.go:209", #[⟨4, .data⟩, ⟨7, .data⟩, ⟨4, .chain⟩], none⟩) rfl (fun K hK => ?_) AllReadyH.nil
                obtain ⟨z1, Yaaa, hrun, lz10, hG⟩ := lo_app w _ z0 _ lz.out (Nat.le_trans HX.out.1.tk.bel.size hYaa.size) [paE (zz kp) (pd : Int)] (fun e he => by rw [List.mem_singleton.1 he]; rfl) qv _ gYaa rfl (by have := HLL.out; simp; omega)
                have lz1 := hid lz10
                clear lz10
                have hYaaa := hYaa.trans (hG.belowB hYaa.size fz0.out)
                clear hG lz hYaa gYaa fz0
                simp only [List.length_cons, List.length_nil, Nat.zero_add] at hrun
                refine step_append_run rfl (.tmp 133) (.tmp 136) 22 22 rfl hrun rfl rfl ?_
                refine hK.out _ _ (hS23.out _ (HX.out.1.below hYaaa)) (fun hHeld => ?_)
                clear hK K hrun
                try simp only [Act.put, lA, l0, lS]
                refine wpAnyH_ready (rs := [9]) (by kernel_rfl) (by simp) ?_
                refine AllReadyH.cons (o := ⟨some 138, .call { callee := Callee.value (.func 9), args := #[.tmp 137, .const (.bool true)], argTypes := #[22, 4] }, 23, "honest.go:209", #[⟨8, .data⟩, ⟨8, .chain⟩], none⟩) rfl (fun K hK => ?_) AllReadyH.nil
                go_simp
                refine (HC4.out _ z1 (HX.out.1.tk.bel.trans (hYaaa.mono HX.out.1.tk.bel.size)) lz1.out).mono ?_
                rintro e' Yaaaa ⟨rfl, bX⟩
                have hYaaaa := hYaaa.trans (bX.mono hYaaa.size)
                clear lz1 bX hYaaa
                go_wp2_with fail
                refine hK.out _ _ (hS23.out _ (HX.out.1.below hYaaaa)) (fun hHeld => ?_)
                clear hK K
                try simp only [Act.put, lA, l0, lS]
                refine tkA (i := 10) (oi := ⟨some 128, .move (.tmp 138), 23, "honest.go:209", #[⟨9, .data⟩], none⟩) ?_
                try simp only [Act.put, lA, l0, lS]
                refine tkA (i := 11) (oi := ⟨some 139, .extract (.tmp 128) 0, 3, "honest.go:209", #[⟨10, .data⟩], none⟩) ?_
                try simp only [Act.put, lA, l0, lS]
                refine tkA (i := 12) (oi := ⟨some 140, .extract (.tmp 128) 1, 2, "honest.go:209", #[⟨10, .data⟩, { on := 13, ground := Ground.gcOnly Departure.lateStores }], none⟩) ?_
                try simp only [Act.put, lA, l0, lS]
                refine tkA (i := 13) (oi := ⟨some 21, .assign (.tmp 139), 3, "honest.go:209", #[⟨11, .data⟩, ⟨9, .chain⟩, ⟨0, .phase⟩, ⟨1, .phase⟩, ⟨2, .phase⟩, ⟨3, .phase⟩, ⟨4, .phase⟩, ⟨5, .phase⟩, ⟨6, .phase⟩, ⟨7, .phase⟩, ⟨8, .phase⟩, ⟨9, .phase⟩, ⟨10, .phase⟩, ⟨11, .phase⟩, { on := 12, ground := Ground.textOnly Departure.lateStores }], none⟩) ?_
                try simp only [Act.put, lA, l0, lS]
                refine tkA (i := 14) (oi := ⟨some 22, .assign (.tmp 140), 2, "honest.go:209", #[⟨12, .data⟩, ⟨13, .chain⟩, ⟨0, .phase⟩, ⟨1, .phase⟩, ⟨2, .phase⟩, ⟨3, .phase⟩, ⟨4, .phase⟩, ⟨5, .phase⟩, ⟨6, .phase⟩, ⟨7, .phase⟩, ⟨8, .phase⟩, ⟨9, .phase⟩, ⟨10, .phase⟩, ⟨11, .phase⟩, ⟨12, .phase⟩, ⟨13, .phase⟩], none⟩) ?_
                try simp only [Act.put, lA, l0, lS]
                refine wpAnyH_done (by kernel_rfl) ?_ _
                have HF : Hid (Wn w Yaaaa b (.slice ub m uc) (tkL l) q1 q3 q6 (zz rs) (zz r1) (zz kp) (pd : Int) ∧ Lo w Yaaaa v14 (tkL l ++ [daE (zz rs)])) := ⟨HX.out.1.below hYaaaa, HX.out.2.below hYaaaa⟩
                clear hHeld hYaaaa HX
                revert HF
                revert Yaaaa
                revert z1
                revert qv
                revert z0
                exact hrest.out
              · intro z0 qv z1 V23 H23
                clear hS23 HOw H22
                have ct := cell_blk H23.out.1.tk.blk 0
                simp only [List.getElem?_toArray, List.getElem?_cons_zero] at ct
                have hm0 : ((m : Int) != (m : Int)) = false := by simp
                have HFs := hid (HF.out V23 H23.out.1.tk.bel)
                go_wp2_with fail
                go_at_call 11
                refine HFs.out.mono ?_
                rintro e' V25 ⟨rfl, bX⟩
                have H25 : Hid (Wn w V25 b (.slice ub m uc) (tkL l) q1 q3 q6 (zz rs) (zz r1) (zz kp) (pd : Int) ∧ Lo w V25 v14 (tkL l ++ [daE (zz rs)])) := ⟨H23.out.1.below bX, H23.out.2.below bX⟩
                clear bX H23 ct HFs
                -- one more entry
                obtain ⟨p27, hp27⟩ : ∃ q, V25.heap.size = q := ⟨_, rfl⟩
                obtain ⟨V26, hV26⟩ : ∃ V, V25.alloc (.cells #[.bool false, .int .i64 8, .int .i64 0, .int .i64 0, .string ⟨#[]⟩, .int .i64 0, .int .i64 0, .bool false, .int .i64 0, .int .i64 0, .int .i64 (gv : Int), .slice none 0 0] 33) = V := ⟨_, rfl⟩
                have b26 : Below V25.heap.size V25 V26 := by rw [← hV26]; exact bel1 _ _
                have g26 : V26.heap[p27]? = some (.cells #[.bool false, .int .i64 8, .int .i64 0, .int .i64 0, .string ⟨#[]⟩, .int .i64 0, .int .i64 0, .bool false, .int .i64 0, .int .i64 0, .int .i64 (gv : Int), .slice none 0 0] 33 (0, 0)) := by rw [← hV26, ← hp27, heap_al, if_pos rfl]
                obtain ⟨v15, V27, hrun, l27, hG⟩ := lo_app w V26 v14 _ (H25.out.2.below b26) (Nat.le_trans H25.out.1.tk.bel.size b26.size) [upE 0 (gv : Int)] (fun e he => by rw [List.mem_singleton.1 he]; rfl) p27 _ g26 rfl (by have := HLL.out; simp; omega)
                simp only [List.length_cons, List.length_nil, Nat.zero_add] at hrun
                have b27 : Below w.heap.size w V27 := (H25.out.1.tk.bel.trans (b26.mono H25.out.1.tk.bel.size)).trans (hG.belowB (Nat.le_trans H25.out.1.tk.bel.size b26.size) (fun k hk => by obtain ⟨ys, _, _, _, h4⟩ := H25.out.2; exact h4 k hk))
                have H27 := hid (And.intro b27 l27)
                clear b26 g26 l27 hG b27
                rw [← hV26, ← hp27] at hrun
                have HRUN := hid hrun
                clear hrun hV26 hp27
                obtain ⟨M4, hm4, hc4⟩ := mk_zero gv (by have := HGV.out; omega)
                obtain ⟨q5, hq5⟩ : ∃ q, V27.heap.size = q := ⟨_, rfl⟩
                obtain ⟨V28, hV28⟩ : ∃ V, V27.alloc (.cells M4 5) = V := ⟨_, rfl⟩
                have b28 : Below V27.heap.size V27 V28 := by rw [← hV28]; exact bel1 _ _
                have hcv4 := hc4 V28 q5 (by rw [← hV28, ← hq5, heap_al, if_pos rfl])
                obtain ⟨q7, hq7⟩ : ∃ q, V28.heap.size = q := ⟨_, rfl⟩
                obtain ⟨V29, hV29⟩ : ∃ V, V28.alloc (.cells #[.int .i64 0, .int .i64 0, .int .i64 1, .string (zz gv), .int .i64 0, .int .i64 0, .bool false, .int .i64 0, .int .i64 0, .int .i64 0, .slice none 0 0] 31) = V := ⟨_, rfl⟩
                have b29 : Below V28.heap.size V28 V29 := by rw [← hV29]; exact bel1 _ _
                have b2829 : Below V27.heap.size V27 V29 := b28.trans (b29.mono b28.size)
                have H28 : Hid (Wm w V29 q7 (zz gv) ∧ Lo w V29 v15 (tkL l ++ [daE (zz rs)] ++ [upE 0 (gv : Int)])) := ⟨⟨H27.out.1.trans (b2829.mono H27.out.1.size), by rw [← hV29, ← hq7, heap_al, if_pos rfl]⟩, H27.out.2.below b2829⟩
                have HV29 := hid hV29
                have HQ7 := hid hq7
                clear b28 b29 b2829 hV29 hq7 hc4 H25 H27
                go_upto_region 27 with fail
                go_wp2_with (at_builtin; refine Lib.wpList_append_run _ rfl (.tmp 183) (.tmp 187) 22 22 rfl _ _ rfl rfl _ _ HRUN.out ?_)
                rw [HV29.out, HQ7.out]
                clear HV29 HQ7 HRUN hm4 hq5 hV28 hcv4
                -- region 29
                have hS29 : Hid (∀ V : World, Wm w V q7 (zz gv) → V.cell? ⟨q7, 0, none⟩ = some (.int .i64 0) ∧ V.cell? ⟨q7, 1, none⟩ = some (.int .i64 0) ∧ V.cell? ⟨q7, 2, none⟩ = some (.int .i64 1) ∧ V.cell? ⟨q7, 3, none⟩ = some (.string (zz gv)) ∧ V.cell? ⟨q7, 4, none⟩ = some (.int .i64 0) ∧ V.cell? ⟨q7, 5, none⟩ = some (.int .i64 0) ∧ V.cell? ⟨q7, 6, none⟩ = some (.bool false) ∧ V.cell? ⟨q7, 7, none⟩ = some (.int .i64 0) ∧ V.cell? ⟨q7, 8, none⟩ = some (.int .i64 0) ∧ V.cell? ⟨q7, 9, none⟩ = some (.int .i64 0) ∧ V.cell? ⟨q7, 10, none⟩ = some (.slice none 0 0)) := fun V h => ⟨cell_blk h.g7 0, cell_blk h.g7 1, cell_blk h.g7 2, cell_blk h.g7 3, cell_blk h.g7 4, cell_blk h.g7 5, cell_blk h.g7 6, cell_blk h.g7 7, cell_blk h.g7 8, cell_blk h.g7 9, cell_blk h.g7 10⟩
                have HOw : Hid (∀ V, Wm w V q7 (zz gv) ∧ Lo w V v15 (tkL l ++ [daE (zz rs)] ++ [upE 0 (gv : Int)]) → Calls Tryz.prog 10 #[v15] V fun r V' => ∃ z, r = .returned z ∧ Lo w V' z (tkL l ++ [daE (zz rs)] ++ [upE 0 (gv : Int)]) ∧ (∀ k, z.ownBlock = some k → V.heap.size ≤ k) ∧ Below V.heap.size V V') := fun V h => lo_own' w V v15 _ h.2 h.1.bel.size HA.out.2.2.2.2.2.2.1 (by have := HLL.out; simp; omega)
                apply cut_rest
                · intro hrest
                  have hIW : Wm w V29.drew q7 (zz gv) ∧ Lo w V29.drew v15 (tkL l ++ [daE (zz rs)] ++ [upE 0 (gv : Int)]) := ⟨H28.out.1.below (Below.refl _ _).drew, H28.out.2.below (Below.refl _ _).drew⟩
                  refine wp_region_held_drew (S := (fun V => V.cell? ⟨q7, 0, none⟩ = some (.int .i64 0) ∧ V.cell? ⟨q7, 1, none⟩ = some (.int .i64 0) ∧ V.cell? ⟨q7, 2, none⟩ = some (.int .i64 1) ∧ V.cell? ⟨q7, 3, none⟩ = some (.string (zz gv)) ∧ V.cell? ⟨q7, 4, none⟩ = some (.int .i64 0) ∧ V.cell? ⟨q7, 5, none⟩ = some (.int .i64 0) ∧ V.cell? ⟨q7, 6, none⟩ = some (.bool false) ∧ V.cell? ⟨q7, 7, none⟩ = some (.int .i64 0) ∧ V.cell? ⟨q7, 8, none⟩ = some (.int .i64 0) ∧ V.cell? ⟨q7, 9, none⟩ = some (.int .i64 0) ∧ V.cell? ⟨q7, 10, none⟩ = some (.slice none 0 0))) (by kernel_rfl) (hS29.out _ hIW.1) (fun hHeld => ?_)
                  generalize hWg : World.drew _ = X29 at hIW hHeld ⊢
                  clear hWg
                  have hB0 : Below X29.heap.size X29 X29 := Below.refl _ _
                  have HX := hid hIW
                  clear hIW
                  refine tkA (i := 0) (oi := ⟨some 194, .move (.tmp 14), 22, "honest.go:216", #[], none⟩) ?_
                  try simp only [Act.put, lA, l0, lS]
                  refine tkA (i := 2) (oi := ⟨some 196, .load 31 (.tmp 24), 31, "honest.go:216", #[], none⟩) ?_
                  try simp only [Act.put, lA, l0, lS]
                  refine tkA (i := 3) (oi := ⟨some 197, .build 33 #[(0, .const (.bool true)), (1, .tmp 196)], 33, "honest.go:216", #[⟨2, .data⟩], none⟩) ?_
                  try simp only [Act.put, lA, l0, lS]
                  refine wpAnyH_ready (rs := [1, 4]) (by kernel_rfl) (by simp) ?_
                  refine AllReadyH.cons (o := ⟨some 195, .call { callee := Callee.value (.func 10), args := #[.tmp 194], argTypes := #[22] }, 22, "honest.go:216", #[⟨0, .data⟩], none⟩) rfl (fun K hK => ?_) ?_
                  · go_simp
                    refine (HOw.out _ ⟨HX.out.1.below hB0, HX.out.2.below hB0⟩).mono ?_
                    rintro e' Ya ⟨z0, rfl, lz0, fz, bX⟩
                    have hYa := hB0.trans (bX.mono hB0.size)
                    have fz0 : Hid (∀ k, z0.ownBlock = some k → X29.heap.size ≤ k) := fun k hk => Nat.le_trans hB0.size (fz k hk)
                    have lz := hid lz0
                    clear lz0
                    clear bX fz hB0
                    go_wp2_with fail
                    refine hK.out _ _ (hS29.out _ (HX.out.1.below hYa)) (fun hHeld => ?_)
                    clear hK K
                    try simp only [Act.put, lA, l0, lS]
                    refine wpAnyH_ready (rs := [4]) (by kernel_rfl) (by simp) ?_
                    refine AllReadyH.cons (o := ⟨some 198, .buildSlice 22 1 #[(0, .tmp 197)], 22, "honest.go:216", #[⟨3, .data⟩], none⟩) rfl (fun K hK => ?_) AllReadyH.nil
                    obtain ⟨qv, hqv⟩ : ∃ q, Ya.heap.size = q := ⟨_, rfl⟩
                    obtain ⟨Yaa, hV0⟩ : ∃ V, Ya.alloc (.cells #[.bool true, .int .i64 0, .int .i64 0, .int .i64 1, .string (zz gv), .int .i64 0, .int .i64 0, .bool false, .int .i64 0, .int .i64 0, .int .i64 0, .slice none 0 0] 33) = V := ⟨_, rfl⟩
                    have bX : Below Ya.heap.size Ya Yaa := by rw [← hV0]; exact bel1 _ _
                    have hYaa := hYa.trans (bX.mono hYa.size)
                    have gYaa : Yaa.heap[qv]? = some (.cells #[.bool true, .int .i64 0, .int .i64 0, .int .i64 1, .string (zz gv), .int .i64 0, .int .i64 0, .bool false, .int .i64 0, .int .i64 0, .int .i64 0, .slice none 0 0] 33 (0, 0)) := by rw [← hV0, ← hqv, heap_al, if_pos rfl]
                    have lzn := hid (lz.out.below bX)
                    clear lz
                    have lz := lzn
                    clear lzn
                    clear bX hYa
                    go_simp
                    go_wp2_with fail
                    try rw [hV0]
                    try rw [hqv]
                    refine hK.out _ _ (hS29.out _ (HX.out.1.below hYaa)) (fun hHeld => ?_)
                    clear hK K hV0 hqv
                    try simp only [Act.put, lA, l0, lS]
                    refine wpAnyH_ready (rs := [5]) (by kernel_rfl) (by simp) ?_
                    refine AllReadyH.cons (o := ⟨some 199, .call { callee := Callee.builtin Builtin.append, args := #[.tmp 195, .tmp 198], argTypes := #[22, 22] }, 22, "honest.go:216", #[⟨1, .data⟩, ⟨4, .data⟩, ⟨1, .chain⟩], none⟩) rfl (fun K hK => ?_) AllReadyH.nil
                    obtain ⟨z1, Yaaa, hrun, lz10, hG⟩ := lo_app w _ z0 _ lz.out (Nat.le_trans HX.out.1.bel.size hYaa.size) [daE (zz gv)] (fun e he => by rw [List.mem_singleton.1 he]; rfl) qv _ gYaa rfl (by have := HLL.out; simp; omega)
                    have lz1 := hid lz10
                    clear lz10
                    have hYaaa := hYaa.trans (hG.belowB hYaa.size fz0.out)
                    clear hG lz hYaa gYaa fz0
                    simp only [List.length_cons, List.length_nil, Nat.zero_add] at hrun
                    refine step_append_run rfl (.tmp 195) (.tmp 198) 22 22 rfl hrun rfl rfl ?_
                    refine hK.out _ _ (hS29.out _ (HX.out.1.below hYaaa)) (fun hHeld => ?_)
                    clear hK K hrun
                    try simp only [Act.put, lA, l0, lS]
                    refine wpAnyH_ready (rs := [6]) (by kernel_rfl) (by simp) ?_
                    refine AllReadyH.cons (o := ⟨some 200, .call { callee := Callee.value (.func 9), args := #[.tmp 199, .const (.bool true)], argTypes := #[22, 4] }, 23, "honest.go:216", #[⟨5, .data⟩, ⟨5, .chain⟩], none⟩) rfl (fun K hK => ?_) AllReadyH.nil
                    go_simp
                    refine (HC5.out _ z1 (HX.out.1.bel.trans (hYaaa.mono HX.out.1.bel.size)) lz1.out).mono ?_
                    rintro e' Yaaaa ⟨rfl, bX⟩
                    have hYaaaa := hYaaa.trans (bX.mono hYaaa.size)
                    clear lz1 bX hYaaa
                    go_wp2_with fail
                    refine hK.out _ _ (hS29.out _ (HX.out.1.below hYaaaa)) (fun hHeld => ?_)
                    clear hK K
                    try simp only [Act.put, lA, l0, lS]
                    refine tkA (i := 7) (oi := ⟨some 193, .move (.tmp 200), 23, "honest.go:216", #[⟨6, .data⟩], none⟩) ?_
                    try simp only [Act.put, lA, l0, lS]
                    refine tkA (i := 8) (oi := ⟨some 201, .extract (.tmp 193) 0, 3, "honest.go:216", #[⟨7, .data⟩], none⟩) ?_
                    try simp only [Act.put, lA, l0, lS]
                    refine tkA (i := 9) (oi := ⟨some 202, .extract (.tmp 193) 1, 2, "honest.go:216", #[⟨7, .data⟩, { on := 10, ground := Ground.gcOnly Departure.lateStores }], none⟩) ?_
                    try simp only [Act.put, lA, l0, lS]
                    refine tkA (i := 10) (oi := ⟨some 25, .assign (.tmp 201), 3, "honest.go:216", #[⟨8, .data⟩, ⟨6, .chain⟩, ⟨0, .phase⟩, ⟨1, .phase⟩, ⟨2, .phase⟩, ⟨3, .phase⟩, ⟨4, .phase⟩, ⟨5, .phase⟩, ⟨6, .phase⟩, ⟨7, .phase⟩, ⟨8, .phase⟩, { on := 9, ground := Ground.textOnly Departure.lateStores }], none⟩) ?_
                    try simp only [Act.put, lA, l0, lS]
                    refine tkA (i := 11) (oi := ⟨some 26, .assign (.tmp 202), 2, "honest.go:216", #[⟨9, .data⟩, ⟨10, .chain⟩, ⟨0, .phase⟩, ⟨1, .phase⟩, ⟨2, .phase⟩, ⟨3, .phase⟩, ⟨4, .phase⟩, ⟨5, .phase⟩, ⟨6, .phase⟩, ⟨7, .phase⟩, ⟨8, .phase⟩, ⟨9, .phase⟩, ⟨10, .phase⟩], none⟩) ?_
                    try simp only [Act.put, lA, l0, lS]
                    refine wpAnyH_done (by kernel_rfl) ?_ _
                    have HF : Hid (Wm w Yaaaa q7 (zz gv) ∧ Lo w Yaaaa v15 (tkL l ++ [daE (zz rs)] ++ [upE 0 (gv : Int)])) := ⟨HX.out.1.below hYaaaa, HX.out.2.below hYaaaa⟩
                    clear hHeld hYaaaa HX
                    revert HF
                    revert Yaaaa
                    revert z1
                    revert qv
                    revert z0
                    exact hrest.out
                  refine AllReadyH.cons (o := ⟨some 198, .buildSlice 22 1 #[(0, .tmp 197)], 22, "honest.go:216", #[⟨3, .data⟩], none⟩) rfl (fun K hK => ?_) AllReadyH.nil
                  obtain ⟨qv, hqv⟩ : ∃ q, X29.heap.size = q := ⟨_, rfl⟩
                  obtain ⟨Ya, hV0⟩ : ∃ V, X29.alloc (.cells #[.bool true, .int .i64 0, .int .i64 0, .int .i64 1, .string (zz gv), .int .i64 0, .int .i64 0, .bool false, .int .i64 0, .int .i64 0, .int .i64 0, .slice none 0 0] 33) = V := ⟨_, rfl⟩
                  have bX : Below X29.heap.size X29 Ya := by rw [← hV0]; exact bel1 _ _
                  have hYa := hB0.trans (bX.mono hB0.size)
                  have gYa : Ya.heap[qv]? = some (.cells #[.bool true, .int .i64 0, .int .i64 0, .int .i64 1, .string (zz gv), .int .i64 0, .int .i64 0, .bool false, .int .i64 0, .int .i64 0, .int .i64 0, .slice none 0 0] 33 (0, 0)) := by rw [← hV0, ← hqv, heap_al, if_pos rfl]
                  clear bX hB0
                  go_simp
                  go_wp2_with fail
                  try rw [hV0]
                  try rw [hqv]
                  refine hK.out _ _ (hS29.out _ (HX.out.1.below hYa)) (fun hHeld => ?_)
                  clear hK K hV0 hqv
                  try simp only [Act.put, lA, l0, lS]
                  refine wpAnyH_ready (rs := [1]) (by kernel_rfl) (by simp) ?_
                  refine AllReadyH.cons (o := ⟨some 195, .call { callee := Callee.value (.func 10), args := #[.tmp 194], argTypes := #[22] }, 22, "honest.go:216", #[⟨0, .data⟩], none⟩) rfl (fun K hK => ?_) AllReadyH.nil
                  go_simp
                  refine (HOw.out _ ⟨HX.out.1.below hYa, HX.out.2.below hYa⟩).mono ?_
                  rintro e' Yaa ⟨z0, rfl, lz0, fz, bX⟩
                  have hYaa := hYa.trans (bX.mono hYa.size)
                  have fz0 : Hid (∀ k, z0.ownBlock = some k → X29.heap.size ≤ k) := fun k hk => Nat.le_trans hYa.size (fz k hk)
                  have lz := hid lz0
                  clear lz0
                  have gYaa := (bX.block _ (heap_lt gYa)).trans gYa
                  clear gYa
                  clear bX fz hYa
                  go_wp2_with fail
                  refine hK.out _ _ (hS29.out _ (HX.out.1.below hYaa)) (fun hHeld => ?_)
                  clear hK K
                  try simp only [Act.put, lA, l0, lS]
                  refine wpAnyH_ready (rs := [5]) (by kernel_rfl) (by simp) ?_
                  refine AllReadyH.cons (o := ⟨some 199, .call { callee := Callee.builtin Builtin.append, args := #[.tmp 195, .tmp 198], argTypes := #[22, 22] }, 22, "honest.go:216", #[⟨1, .data⟩, ⟨4, .data⟩, ⟨1, .chain⟩], none⟩) rfl (fun K hK => ?_) AllReadyH.nil
                  obtain ⟨z1, Yaaa, hrun, lz10, hG⟩ := lo_app w _ z0 _ lz.out (Nat.le_trans HX.out.1.bel.size hYaa.size) [daE (zz gv)] (fun e he => by rw [List.mem_singleton.1 he]; rfl) qv _ gYaa rfl (by have := HLL.out; simp; omega)
                  have lz1 := hid lz10
                  clear lz10
                  have hYaaa := hYaa.trans (hG.belowB hYaa.size fz0.out)
                  clear hG lz hYaa gYaa fz0
                  simp only [List.length_cons, List.length_nil, Nat.zero_add] at hrun
                  refine step_append_run rfl (.tmp 195) (.tmp 198) 22 22 rfl hrun rfl rfl ?_
                  refine hK.out _ _ (hS29.out _ (HX.out.1.below hYaaa)) (fun hHeld => ?_)
                  clear hK K hrun
                  try simp only [Act.put, lA, l0, lS]
                  refine wpAnyH_ready (rs := [6]) (by kernel_rfl) (by simp) ?_
                  refine AllReadyH.cons (o := ⟨some 200, .call { callee := Callee.value (.func 9), args := #[.tmp 199, .const (.bool true)], argTypes := #[22, 4] }, 23, "honest.go:216", #[⟨5, .data⟩, ⟨5, .chain⟩], none⟩) rfl (fun K hK => ?_) AllReadyH.nil
                  go_simp
                  refine (HC5.out _ z1 (HX.out.1.bel.trans (hYaaa.mono HX.out.1.bel.size)) lz1.out).mono ?_
                  rintro e' Yaaaa ⟨rfl, bX⟩
                  have hYaaaa := hYaaa.trans (bX.mono hYaaa.size)
                  clear lz1 bX hYaaa
                  go_wp2_with fail
                  refine hK.out _ _ (hS29.out _ (HX.out.1.below hYaaaa)) (fun hHeld => ?_)
                  clear hK K
                  try simp only [Act.put, lA, l0, lS]
                  refine tkA (i := 7) (oi := ⟨some 193, .move (.tmp 200), 23, "honest.go:216", #[⟨6, .data⟩], none⟩) ?_
                  try simp only [Act.put, lA, l0, lS]
                  refine tkA (i := 8) (oi := ⟨some 201, .extract (.tmp 193) 0, 3, "honest.go:216", #[⟨7, .data⟩], none⟩) ?_
                  try simp only [Act.put, lA, l0, lS]
                  refine tkA (i := 9) (oi := ⟨some 202, .extract (.tmp 193) 1, 2, "honest.go:216", #[⟨7, .data⟩, { on := 10, ground := Ground.gcOnly Departure.lateStores }], none⟩) ?_
                  try simp only [Act.put, lA, l0, lS]
                  refine tkA (i := 10) (oi := ⟨some 25, .assign (.tmp 201), 3, "honest.go:216", #[⟨8, .data⟩, ⟨6, .chain⟩, ⟨0, .phase⟩, ⟨1, .phase⟩, ⟨2, .phase⟩, ⟨3, .phase⟩, ⟨4, .phase⟩, ⟨5, .phase⟩, ⟨6, .phase⟩, ⟨7, .phase⟩, ⟨8, .phase⟩, { on := 9, ground := Ground.textOnly Departure.lateStores }], none⟩) ?_
                  try simp only [Act.put, lA, l0, lS]
                  refine tkA (i := 11) (oi := ⟨some 26, .assign (.tmp 202), 2, "honest.go:216", #[⟨9, .data⟩, ⟨10, .chain⟩, ⟨0, .phase⟩, ⟨1, .phase⟩, ⟨2, .phase⟩, ⟨3, .phase⟩, ⟨4, .phase⟩, ⟨5, .phase⟩, ⟨6, .phase⟩, ⟨7, .phase⟩, ⟨8, .phase⟩, ⟨9, .phase⟩, ⟨10, .phase⟩], none⟩) ?_
                  try simp only [Act.put, lA, l0, lS]
                  refine wpAnyH_done (by kernel_rfl) ?_ _
                  have HF : Hid (Wm w Yaaaa q7 (zz gv) ∧ Lo w Yaaaa v15 (tkL l ++ [daE (zz rs)] ++ [upE 0 (gv : Int)])) := ⟨HX.out.1.below hYaaaa, HX.out.2.below hYaaaa⟩
                  clear hHeld hYaaaa HX
                  revert HF
                  revert Yaaaa
                  revert z1
                  revert qv
                  revert z0
                  exact hrest.out
                · intro z0 qv z1 V32 H29
                  clear hS29 HOw H28
                  have gq := H29.out.1.g7
                  have c0 := cell_blk gq 0
                  have c1 := cell_blk gq 1
                  have c2 := cell_blk gq 2
                  have c3 := cell_blk gq 3
                  have c4 := cell_blk gq 4
                  have c5 := cell_blk gq 5
                  have c6 := cell_blk gq 6
                  have c7 := cell_blk gq 7
                  have c8 := cell_blk gq 8
                  have c9 := cell_blk gq 9
                  have c10 := cell_blk gq 10
                  simp only [List.getElem?_toArray, List.getElem?_cons_succ, List.getElem?_cons_zero] at c0 c1 c2 c3 c4 c5 c6 c7 c8 c9 c10
                  obtain ⟨p30, hp30⟩ : ∃ q, V32.heap.size = q := ⟨_, rfl⟩
                  obtain ⟨V30, hV30⟩ : ∃ V, V32.alloc (.cells #[.bool false, .int .i64 8, .int .i64 0, .int .i64 1, .string ⟨#[]⟩, .int .i64 0, .int .i64 0, .bool false, .int .i64 0, .int .i64 0, .int .i64 (gv : Int), .slice none 0 0, .bool true, .int .i64 0, .int .i64 0, .int .i64 1, .string (zz gv), .int .i64 0, .int .i64 0, .bool false, .int .i64 0, .int .i64 0, .int .i64 0, .slice none 0 0] 33) = V := ⟨_, rfl⟩
                  have b30 : Below V32.heap.size V32 V30 := by rw [← hV30]; exact bel1 _ _
                  have g30 : V30.heap[p30]? = some (.cells #[.bool false, .int .i64 8, .int .i64 0, .int .i64 1, .string ⟨#[]⟩, .int .i64 0, .int .i64 0, .bool false, .int .i64 0, .int .i64 0, .int .i64 (gv : Int), .slice none 0 0, .bool true, .int .i64 0, .int .i64 0, .int .i64 1, .string (zz gv), .int .i64 0, .int .i64 0, .bool false, .int .i64 0, .int .i64 0, .int .i64 0, .slice none 0 0] 33 (0, 0)) := by rw [← hV30, ← hp30, heap_al, if_pos rfl]
                  obtain ⟨v16, V31, hrun, l31, hG⟩ := lo_app w V30 v15 _ (H29.out.2.below b30) (Nat.le_trans H29.out.1.bel.size b30.size) [upE 1 (gv : Int), daE (zz gv)] (fun e he => by simp at he; rcases he with rfl | rfl <;> rfl) p30 _ g30 rfl (by have := HLL.out; simp; omega)
                  simp only [List.length_cons, List.length_nil, Nat.zero_add] at hrun
                  have b31 : Below w.heap.size w V31 := (H29.out.1.bel.trans (b30.mono H29.out.1.bel.size)).trans (hG.belowB (Nat.le_trans H29.out.1.bel.size b30.size) (fun k hk => by obtain ⟨ys, _, _, _, h4⟩ := H29.out.2; exact h4 k hk))
                  have H31 : Hid (Below w.heap.size w V31 ∧ Lo w V31 v16 (tkL l ++ [daE (zz rs)] ++ [upE 0 (gv : Int)] ++ [upE 1 (gv : Int), daE (zz gv)])) := ⟨b31, l31⟩
                  rw [← hV30, ← hp30] at hrun
                  have HRUN := hid hrun
                  have HO := hid (lo_own' w V31 v16 _ l31 b31.size HA.out.2.2.2.2.2.2.2.2.1 (by have := HLL.out; simp; omega))
                  clear b30 g30 hrun l31 hG b31 hV30 hp30 gq H29
                  go_upto_region 30 with fail
                  go_wp2_with (at_builtin; refine Lib.wpList_append_run _ rfl (.tmp 203) (.tmp 209) 22 22 rfl _ _ rfl rfl _ _ HRUN.out ?_)
                  clear c0 c1 c2 c3 c4 c5 c6 c7 c8 c9 c10 HRUN
                  go_at_call 10
                  refine HO.out.mono ?_
                  rintro e' V33 ⟨z3, rfl, l3, _, b3⟩
                  have HK3 := hid (HC6.out V33 z3 (H31.out.1.trans (b3.mono H31.out.1.size)) l3)
                  have H33 : Hid (Below w.heap.size w V33 ∧ Lo w V33 v16 (tkL l ++ [daE (zz rs)] ++ [upE 0 (gv : Int)] ++ [upE 1 (gv : Int), daE (zz gv)])) := ⟨H31.out.1.trans (b3.mono H31.out.1.size), H31.out.2.below b3⟩
                  clear l3 b3 HO H31
                  go_wp2_with fail
                  go_at_call 9
                  refine HK3.out.mono ?_
                  rintro e' V34 ⟨rfl, b3⟩
                  have H34 : Hid (Below w.heap.size w V34 ∧ Lo w V34 v16 (tkL l ++ [daE (zz rs)] ++ [upE 0 (gv : Int)] ++ [upE 1 (gv : Int), daE (zz gv)])) := ⟨H33.out.1.trans (b3.mono H33.out.1.size), H33.out.2.below b3⟩
                  have HT4 := hid (lo_turn w V34 v16 _ H34.out.2 H34.out.1.size HA.out.2.2.2.2.2.2.2.2.1 (by have := HLL.out; simp; omega))
                  clear b3 HK3 H33
                  go_wp2_with fail
                  go_at_call 19
                  refine HT4.out.mono ?_
                  rintro e' V35 ⟨z4, rfl, l4, b4⟩
                  have HK4 := hid (HC7.out V35 z4 (H34.out.1.trans (b4.mono H34.out.1.size)) l4)
                  have H35 := hid (H34.out.1.trans (b4.mono H34.out.1.size))
                  clear l4 b4 HT4 H34
                  have hmw : wrap64 ((m : Int) + 2) = ((m + 2 : Nat) : Int) := by have := HGV.out; unfold wrap64; omega
                  go_wp2_with fail
                  go_at_call 9
                  refine HK4.out.mono ?_
                  rintro e' V36 ⟨rfl, b4⟩
                  have hE := H35.out.trans (b4.mono H35.out.size)
                  clear b4 HK4 H35
                  go_wp2_with fail
                  go_ret
                  exact ⟨by first | rfl | simp, hE⟩
end Go.Proofs.YtfmljlflnpmceaaGreatDoor
