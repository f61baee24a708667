/- Rows of bytes that grow; Made. -/
import Derived.Test.YtbifmikndpeafaaDoorC4
import Derived.Test.YtbifmikndpeafaaDoorD6
import Derived.Lib.BitFns
import Derived.Deep.Cut
namespace Go.Proofs.YtbifmikndpeafaaDoor
open Go.RowKit
set_option linter.unusedVariables false
set_option linter.unusedSimpArgs false
theorem wraps_i64_63 (n : Int) (h₀ : 0 ≤ n) (h₁ : n < 2 ^ 63) : IntKind.i64.wrap n = n := by rw [IntKind.wrap_i64]; omega
/-- of any number: its lower bits -/
theorem and_any (n : Int) (p : Nat) (hp : p ≤ 62) : bits .and .i64 n ((2 ^ p - 1 : Nat) : Int) = n % ((2 ^ p : Nat) : Int) := by
  have hpp : 2 ^ p < 2 ^ 63 := Nat.pow_lt_pow_right (by decide) (by omega)
  have hpos : 0 < 2 ^ p := Nat.two_pow_pos p
  have hd : 2 ^ p ∣ 2 ^ 64 := Nat.pow_dvd_pow 2 (by omega)
  have hb : (BitVec.ofInt 64 ((2 ^ p - 1 : Nat) : Int)).toNat = 2 ^ p - 1 := by
    rw [BitVec.ofInt_natCast, BitVec.toNat_ofNat]; exact Nat.mod_eq_of_lt (by omega)
  have ha : (BitVec.ofInt 64 n).toNat = (n % ((2 ^ 64 : Nat) : Int)).toNat := BitVec.toNat_ofInt n
  have key : (n % ((2 ^ 64 : Nat) : Int)).toNat % 2 ^ p = (n % ((2 ^ p : Nat) : Int)).toNat := by
    have h1 : 0 ≤ n % ((2 ^ 64 : Nat) : Int) := Int.emod_nonneg _ (by decide)
    have h2 : 0 ≤ n % ((2 ^ p : Nat) : Int) := Int.emod_nonneg _ (by omega)
    apply Int.ofNat.inj
    show (((n % ((2 ^ 64 : Nat) : Int)).toNat % 2 ^ p : Nat) : Int) = (((n % ((2 ^ p : Nat) : Int)).toNat : Nat) : Int)
    rw [Int.natCast_emod, Int.toNat_of_nonneg h1, Int.toNat_of_nonneg h2]
    exact Int.emod_emod_of_dvd n (Int.natCast_dvd_natCast.2 hd)
  have h2 : 0 ≤ n % ((2 ^ p : Nat) : Int) := Int.emod_nonneg _ (by omega)
  have h3 : n % ((2 ^ p : Nat) : Int) < ((2 ^ p : Nat) : Int) := Int.emod_lt_of_pos _ (by omega)
  show IntKind.i64.wrap (((BitVec.ofInt 64 n) &&& (BitVec.ofInt 64 ((2 ^ p - 1 : Nat) : Int))).toNat : Int) = _
  rw [BitVec.toNat_and, ha, hb, Nat.and_two_pow_sub_one_eq_mod, key, Int.toNat_of_nonneg h2]
  exact wraps_i64_63 _ h2 (by omega)

/-- a row of bytes made since V -/
def Rw (V wr : World) (v : Value) (L : List UInt8) : Prop := R EB wr v L ∧ Below V.heap.size V wr ∧ ∀ j, v.ownBlock = some j → V.heap.size ≤ j
theorem Rw.nil (V : World) : Rw V V (.slice none 0 0) [] := ⟨R.nil EB V, Below.refl _ _, fun j hj => by simp [Value.ownBlock] at hj⟩
theorem Rw.slice {V wr : World} {v : Value} {L : List UInt8} (h : Rw V wr v L) : ∃ b c, v = .slice b L.length c := by
  obtain ⟨b, c, e, _⟩ := h.1.slice
  exact ⟨b, c, e⟩
theorem Rw.below {V wr w' : World} {v : Value} {L : List UInt8} (h : Rw V wr v L) (hb : Below wr.heap.size wr w') : Rw V w' v L := ⟨h.1.below hb, h.2.1.trans (hb.mono h.2.1.size), h.2.2⟩
theorem Rw.app {V wr : World} {b : Option Addr} {k c : Nat} {L : List UInt8} (h : Rw V wr (.slice b k c) L) (hk : k = L.length) (hl : L.length + 1 ≤ 140737488355328) (x : UInt8) (z : Int) (hz : (x.toNat : Int) = z) :
    ∃ b2 c2 w2, (Builtin.append_ #[33, 33] 33 #[.slice b k c, .slice (some ⟨wr.heap.size, 0, none⟩) 1 1]).run Tryd.prog (wr.alloc (.cells #[.int .u8 z] 5)) = .ok (.slice b2 (k + 1) c2) w2 ∧ Rw V w2 (.slice b2 (k + 1) c2) (L ++ [x]) := by
  subst hz
  subst hk
  have ba := bel1 wr (.cells #[.int .u8 (x.toNat : Int)] 5)
  obtain ⟨b2, c2, w2, e1, e2, e3⟩ := Go.Proofs.YtbifmikndpeafaaDoor.app okB (wr.alloc (.cells #[.int .u8 (x.toNat : Int)] 5)) _ _ (R.below h.1 ba) (.slice (some ⟨wr.heap.size, 0, none⟩) 1 1) [x] (in_one (x := x) _ _ #[.int .u8 (x.toNat : Int)] 5 (0, 0) (by rw [heap_al, if_pos rfl]) rfl) (by simp only [EB, List.length_singleton]; omega)
  have el : L.length + [x].length = L.length + 1 := rfl
  rw [el] at e1 e2 e3
  refine ⟨b2, c2, w2, e1, e2, ?_, fun j hj => ?_⟩
  · exact h.2.1.trans (Below.trans (ba.mono h.2.1.size) (e3.belowB (Nat.le_trans h.2.1.size ba.size) h.2.2))
  · rcases e3.own j hj with e | e
    · exact h.2.2 j e
    · exact Nat.le_trans (Nat.le_trans h.2.1.size ba.size) e
/-- the first i bytes of a made host -/
def mInv (i : Nat) (L : List UInt8) : Prop := ∃ n, n ≤ i % 9 + 1 ∧ (1 ≤ i → 1 ≤ n) ∧ (i = 0 → L = []) ∧ (1 ≤ i → 1 ≤ L.length) ∧ L.length ≤ 2 * i ∧ ∀ rest, hB (L ++ rest) 0 false = hB rest n false
theorem mInv.zero : mInv 0 [] := ⟨0, by omega, by omega, fun _ => rfl, by omega, by simp, fun _ => rfl⟩
theorem mInv.chr {i : Nat} {L : List UInt8} (h : mInv i L) (h8 : i % 9 ≠ 8) (x : UInt8) (hx : lbB x = true) : mInv (i + 1) (L ++ [x]) := by
  obtain ⟨n, h1, h2, h3, h4, h5, h6⟩ := h
  refine ⟨n + 1, by omega, by omega, by omega, by simp, by simp; omega, fun rest => ?_⟩
  rw [List.append_assoc, h6, List.singleton_append, hB_lab hx]
theorem mInv.dot {i : Nat} {L : List UInt8} (h : mInv i L) (h8 : i % 9 = 8) (x : UInt8) (hx : lbB x = true) : mInv (i + 1) (L ++ [46] ++ [x]) := by
  obtain ⟨n, h1, h2, h3, h4, h5, h6⟩ := h
  refine ⟨1, by omega, by omega, by omega, by simp, by simp; omega, fun rest => ?_⟩
  rw [List.append_assoc, List.append_assoc, h6, List.singleton_append, hB_dot ⟨rfl, h2 (by omega), by omega, rfl⟩, List.singleton_append, hB_lab hx]
theorem mInv.host {i : Nat} {L : List UInt8} (h : mInv i L) (h1 : 1 ≤ i) (h90 : i ≤ 90) : hostB (bt L) = true := by
  obtain ⟨n, a1, a2, a3, a4, a5, a6⟩ := h
  unfold hostB
  rw [bt_size, bt_list, a6, decide_eq_true (by omega), hB_dot ⟨rfl, a2 h1, by omega, rfl⟩]
  rfl
theorem host_h : hostB (bt [104]) = true := by decide
def sgS : ByteArray := ⟨#[97, 98, 99, 100, 101, 102, 103, 104, 105, 106, 107, 108, 109, 110, 111, 112, 113, 114, 115, 116, 117, 118, 119, 120, 121, 122, 48, 49, 50, 51, 52, 53, 54, 55, 56, 57]⟩
theorem sg_lab (k : Nat) (h : k < 36) : lbB (sgS[k]'(by have : sgS.size = 36 := rfl; omega)) = true := by
  have : ∀ k : Fin 36, lbB (sgS.data.toList.getD k.val 0) = true := by decide
  have h1 := this ⟨k, h⟩
  rw [getD_at (s := sgS) (by have : sgS.size = 36 := rfl; omega)] at h1
  exact h1
/-- a right origin, made since w -/
def MdPost (w : World) (e : Ending) (w' : World) : Prop := ∃ o : Og, e = .returned (.agg (ogv o)) ∧ rtB o = true ∧ Below w.heap.size w w'
set_option maxHeartbeats 8000000 in
set_option maxRecDepth 100000 in
theorem made_any (o : Og) (w : World) (hz : o.h.size ≤ 140737488355328) (hs : o.s.size ≤ 140737488355328) (hp : -9223372036854775808 ≤ o.p ∧ o.p ≤ 9223372036854775807) : Calls Tryd.prog 10 #[.agg (ogv o)] w (MdPost w) := by
  obtain ⟨n, hn⟩ : ∃ n, w.heap.size = n := ⟨_, rfl⟩
  have HN : Hid (w.heap.size = n) := hn
  obtain ⟨hp1, hp2⟩ := hp
  obtain ⟨P0, hP0⟩ : ∃ P0 : Int, o.p % 32768 = P0 := ⟨_, rfl⟩
  have hand : bits .and .i64 o.p 32767 = P0 := by rw [← hP0]; exact and_any o.p 15 (by decide)
  have hP1 : 0 ≤ P0 ∧ P0 ≤ 32767 := by omega
  obtain ⟨hP1, hP2⟩ := hP1
  unfold ogv
  clear hP0
  have hpar : o.s.size % 2 = 0 ∨ o.s.size % 2 = 1 := by omega
  rcases hpar with hpar | hpar
  · have hpt : (o.s.size : Int).tmod 2 = 0 := by rw [Int.tmod_eq_emod_of_nonneg (by omega)]; omega
    clear hpar
    by_cases hneg : o.p < 0
    · go_enter Tryd.func10, Tryd.ntmps10
      go_wp2_with fail
      clear hpt hneg
      obtain ⟨V, hV⟩ : ∃ V, ((w.alloc (.cells #[.string o.s, .string o.h, .int .i64 o.p] 23)).alloc (.cells #[.string ⟨#[]⟩, .string ⟨#[]⟩, .int .i64 0] 23)).alloc (.cells #[.string ⟨#[104, 116, 116, 112]⟩, .string ⟨#[]⟩, .int .i64 80] 23) = V := ⟨_, rfl⟩
      have HSz : Hid (V.heap.size = n + 3) := by show _ = _; rw [← hV, size_al, size_al, size_al, hn]
      have HO : Hid (OB V n o) := by show OB _ _ _; unfold OB; rw [← hV, ← hn, heap_al, if_neg (by simp; omega), heap_al, if_neg (by simp), heap_al, if_pos rfl]; rfl
      have HR0 : Hid (OB V (n + 1) og0) := by show OB _ _ _; unfold OB; rw [← hV, ← hn, heap_al, if_neg (by simp), heap_al, if_pos (by simp)]; rfl
      have HP : Hid (OB V (n + 2) ⟨⟨#[104, 116, 116, 112]⟩, ⟨#[]⟩, 80⟩) := by show OB _ _ _; unfold OB; rw [← hV, ← hn]; exact fresh3 _ _ _ _
      have HB : Hid (Below n w V) := by rw [← hV, ← hn]; exact bel3 _ _ _ _
      have HRT : Hid (∀ h, hostB h = true → rtB ⟨⟨#[104, 116, 116, 112]⟩, h, 80⟩ = true) := fun h hh => rtB_iff.2 ⟨(by decide : usP (⟨#[104, 116, 116, 112]⟩ : ByteArray) ≠ 0), hh, by simp only; omega, by simp only; omega⟩
      try rw [hn]
      rw [hV]
      clear hV hn hp1 hp2 hP1 hP2 hand
      go_loopw [5, 6] (fun bv iv wr => ∃ (i k c : Nat) (b : Option Addr) (L : List UInt8), bv = .slice b k c ∧ iv = .int .i64 (i : Int) ∧ i ≤ o.h.size ∧ i ≤ 90 ∧ k ≤ 180 ∧ Hid (k = L.length ∧ mInv i L ∧ Rw V wr (.slice b k c) L)) (fun _ iv _ => 90 - (intOf iv).toNat)
      case atStart => exact ⟨0, 0, 0, none, [], rfl, rfl, by omega, by omega, by omega, rfl, mInv.zero, Rw.nil V⟩
      case round =>
        obtain ⟨i, k, c, b, L, rfl, rfl, hi, hi90, hk, hJ⟩ := hrel
        have OW : Hid (OB wr n o) := HO.out.below hJ.out.2.2.2.1
        obtain ⟨d0, d1, d2, _, _, _⟩ := OW.out.cells
        by_cases hlt : i < o.h.size
        · have a1 : (i : Int) < (o.h.size : Int) := by omega
          by_cases h90 : i < 90
          · have a2 : (i : Int) < 90 := by omega
            obtain ⟨x, hx⟩ : ∃ x : UInt8, o.h[i]'hlt = x := ⟨_, rfl⟩
            have hx8 := x.toNat_lt
            obtain ⟨q, hq⟩ : ∃ q : Nat, x.toNat % 36 = q := ⟨_, rfl⟩
            have hqt : (x.toNat : Int).tmod 36 = (q : Int) := by rw [← hq, Int.tmod_eq_emod_of_nonneg (by omega)]; omega
            have hq36 : q < 36 := by omega
            have hq36' : (q : Int) < 36 := by omega
            have hqs : q < sgS.size := by have : sgS.size = 36 := rfl; omega
            obtain ⟨y, hy⟩ : ∃ y : UInt8, sgS[q]'hqs = y := ⟨_, rfl⟩
            have HY : Hid (lbB y = true) := by show _ = _; rw [← hy]; exact sg_lab q hq36
            have hy2 : ((sgS.data[q]'hqs).toNat : Int) = (y.toNat : Int) := by rw [← hy]; rfl
            obtain ⟨r, hr⟩ : ∃ r : Nat, i % 9 = r := ⟨_, rfl⟩
            have hrt : (i : Int).tmod 9 = (r : Int) := by rw [← hr, Int.tmod_eq_emod_of_nonneg (by omega)]; omega
            unfold sgS at hy hqs
            by_cases h8 : r = 8
            · have a3 : ((r : Int) == 8) = true := by rw [h8]; rfl
              obtain ⟨b2, c2, w2, e1, e2⟩ := hJ.out.2.2.app hJ.out.1 (by have := hJ.out.1; omega) 46 46 rfl
              obtain ⟨b3, c3, w3, e3, e4⟩ := e2.app (by simp [hJ.out.1]) (by have := hJ.out.1; simp; omega) y (y.toNat : Int) rfl
              have HN2 : Hid (k + 1 + 1 = (L ++ [46] ++ [y]).length ∧ mInv (i + 1) (L ++ [46] ++ [y]) ∧ Rw V w3 (.slice b3 (k + 1 + 1) c3) (L ++ [46] ++ [y])) := ⟨by simp [hJ.out.1], hJ.out.2.1.dot (by omega) y HY.out, e4⟩
              have hk2 : k + 1 + 1 ≤ 180 := by
                obtain ⟨m, _, _, _, _, hm, _⟩ := HN2.out.2.1
                rw [← HN2.out.1] at hm
                omega
              have OW2 : Hid (OB w2 n o) := HO.out.below e2.2.1
              replace e1 : Hid _ := e1
              replace e3 : Hid _ := e3
              obtain ⟨g0, g1, g2, _, _, _⟩ := OW2.out.cells
              clear hJ h8 hr hq e2 e4
              go_upto_region 15 with (at_builtin; refine Lib.wpList_append_run _ rfl _ _ _ _ rfl _ _ rfl rfl _ _ e1.out ?_)
              clear d0 d1 d2
              go_wp2_with (at_builtin; refine Lib.wpList_append_run _ rfl _ _ _ _ rfl _ _ rfl rfl _ _ e3.out ?_)
              go_roundw
              case rel => exact ⟨i + 1, k + 1 + 1, c3, b3, _, by first | rfl | simp, by simp, by omega, by omega, by omega, HN2.out⟩
              case measure => simp [intOf]; omega
            · have a3 : ((r : Int) == 8) = false := beq_eq_false_iff_ne.2 (by omega)
              obtain ⟨b3, c3, w3, e3, e4⟩ := hJ.out.2.2.app hJ.out.1 (by have := hJ.out.1; omega) y (y.toNat : Int) rfl
              have HN2 : Hid (k + 1 = (L ++ [y]).length ∧ mInv (i + 1) (L ++ [y]) ∧ Rw V w3 (.slice b3 (k + 1) c3) (L ++ [y])) := ⟨by simp [hJ.out.1], hJ.out.2.1.chr (by omega) y HY.out, e4⟩
              have hk2 : k + 1 ≤ 180 := by
                obtain ⟨m, _, _, _, _, hm, _⟩ := HN2.out.2.1
                rw [← HN2.out.1] at hm
                omega
              replace e3 : Hid _ := e3
              clear hJ h8 hr hq e4
              go_wp2_with (at_builtin; refine Lib.wpList_append_run _ rfl _ _ _ _ rfl _ _ rfl rfl _ _ e3.out ?_)
              go_roundw
              case rel => exact ⟨i + 1, k + 1, c3, b3, _, by first | rfl | simp, by simp, by omega, by omega, by omega, HN2.out⟩
              case measure => simp [intOf]; omega
          · have a2 : ¬ (i : Int) < 90 := by omega
            have hi1 : 1 ≤ i := by omega
            have HK : Hid (1 ≤ k) := by
              obtain ⟨m, _, _, _, hm, _, _⟩ := hJ.out.2.1
              show _ ≤ _
              rw [hJ.out.1]
              exact hm hi1
            have a3 : ((k : Int) == 0) = false := beq_eq_false_iff_ne.2 (by have := HK.out; omega)
            have hcv := conv_row' (R.isIn hJ.out.2.2.1)
            have HB4 : Hid (Below V.heap.size V wr) := hJ.out.2.2.2.1
            have HH : Hid (hostB (bt L) = true) := hJ.out.2.1.host hi1 hi90
            clear hJ
            obtain ⟨T, hT⟩ : ∃ T, bt L = T := ⟨_, rfl⟩
            rw [hT] at hcv HH
            have PW : Hid (OB wr (n + 2) ⟨⟨#[104, 116, 116, 112]⟩, ⟨#[]⟩, 80⟩) := HP.out.below HB4.out
            have RW : Hid (OB wr (n + 1) og0) := HR0.out.below HB4.out
            obtain ⟨p0, p1, p2, q0, q1, q2⟩ := PW.out.cells
            simp only at p0 p1 p2
            obtain ⟨Y, hY⟩ : ∃ Y, wr.setCell ⟨n + 2, 1, none⟩ (.string T) = Y := ⟨_, rfl⟩
            have PY : Hid (OB Y (n + 2) ⟨⟨#[104, 116, 116, 112]⟩, T, 80⟩) := by show OB _ _ _; rw [← hY]; exact PW.out.setH _
            have RY : Hid (OB Y (n + 1) og0) := by show OB _ _ _; rw [← hY]; exact RW.out.keep (setCell_other _ _ _ _ _ (by omega))
            have BY : Hid (Below n w Y) := by rw [← hY]; exact (HB.out.trans (HB4.out.mono (by rw [HSz.out]; omega))).setCell (p := ⟨n + 2, 1, none⟩) (by simp only; omega) _
            obtain ⟨c0, c1, c2, f0, f1, f2⟩ := RY.out.cells
            obtain ⟨k0, k1, k2, _, _, _⟩ := PY.out.cells
            simp only [og0] at c0 c1 c2 k0 k1 k2
            have FG : Hid (OB (setO Y (n + 1) ⟨⟨#[104, 116, 116, 112]⟩, T, 80⟩) (n + 1) ⟨⟨#[104, 116, 116, 112]⟩, T, 80⟩) := RY.out.set _
            have FB : Hid (Below n w (setO Y (n + 1) ⟨⟨#[104, 116, 116, 112]⟩, T, 80⟩)) := BY.out.trans (setO_below _ (by omega))
            clear hT
            go_wp2_with fail
            refine bodyPost_ret (results_cell_row (p := 2) (ty := 23) rfl _ _ (n + 1) 23 _ (0, 0) _ rfl FG.out Tryd.underlying23 rfl (by kernel_rfl)) rfl ⟨⟨⟨#[104, 116, 116, 112]⟩, T, 80⟩, rfl, HRT.out T HH.out, ?_⟩
            rw [HN.out]
            exact FB.out
        · have a1 : ¬ (i : Int) < (o.h.size : Int) := by omega
          by_cases hi1 : 1 ≤ i
          · have HK : Hid (1 ≤ k) := by
              obtain ⟨m, _, _, _, hm, _, _⟩ := hJ.out.2.1
              show _ ≤ _
              rw [hJ.out.1]
              exact hm hi1
            have a3 : ((k : Int) == 0) = false := beq_eq_false_iff_ne.2 (by have := HK.out; omega)
            have hcv := conv_row' (R.isIn hJ.out.2.2.1)
            have HB4 : Hid (Below V.heap.size V wr) := hJ.out.2.2.2.1
            have HH : Hid (hostB (bt L) = true) := hJ.out.2.1.host hi1 hi90
            clear hJ
            obtain ⟨T, hT⟩ : ∃ T, bt L = T := ⟨_, rfl⟩
            rw [hT] at hcv HH
            have PW : Hid (OB wr (n + 2) ⟨⟨#[104, 116, 116, 112]⟩, ⟨#[]⟩, 80⟩) := HP.out.below HB4.out
            have RW : Hid (OB wr (n + 1) og0) := HR0.out.below HB4.out
            obtain ⟨p0, p1, p2, q0, q1, q2⟩ := PW.out.cells
            simp only at p0 p1 p2
            obtain ⟨Y, hY⟩ : ∃ Y, wr.setCell ⟨n + 2, 1, none⟩ (.string T) = Y := ⟨_, rfl⟩
            have PY : Hid (OB Y (n + 2) ⟨⟨#[104, 116, 116, 112]⟩, T, 80⟩) := by show OB _ _ _; rw [← hY]; exact PW.out.setH _
            have RY : Hid (OB Y (n + 1) og0) := by show OB _ _ _; rw [← hY]; exact RW.out.keep (setCell_other _ _ _ _ _ (by omega))
            have BY : Hid (Below n w Y) := by rw [← hY]; exact (HB.out.trans (HB4.out.mono (by rw [HSz.out]; omega))).setCell (p := ⟨n + 2, 1, none⟩) (by simp only; omega) _
            obtain ⟨c0, c1, c2, f0, f1, f2⟩ := RY.out.cells
            obtain ⟨k0, k1, k2, _, _, _⟩ := PY.out.cells
            simp only [og0] at c0 c1 c2 k0 k1 k2
            have FG : Hid (OB (setO Y (n + 1) ⟨⟨#[104, 116, 116, 112]⟩, T, 80⟩) (n + 1) ⟨⟨#[104, 116, 116, 112]⟩, T, 80⟩) := RY.out.set _
            have FB : Hid (Below n w (setO Y (n + 1) ⟨⟨#[104, 116, 116, 112]⟩, T, 80⟩)) := BY.out.trans (setO_below _ (by omega))
            clear hT
            go_wp2_with fail
            refine bodyPost_ret (results_cell_row (p := 2) (ty := 23) rfl _ _ (n + 1) 23 _ (0, 0) _ rfl FG.out Tryd.underlying23 rfl (by kernel_rfl)) rfl ⟨⟨⟨#[104, 116, 116, 112]⟩, T, 80⟩, rfl, HRT.out T HH.out, ?_⟩
            rw [HN.out]
            exact FB.out
          · obtain rfl : i = 0 := by omega
            have hk0 : k = 0 := by
              obtain ⟨m, _, _, hm, _, _, _⟩ := hJ.out.2.1
              rw [hJ.out.1, hm rfl]
              rfl
            have HL : Hid (L = []) := by
              obtain ⟨m, _, _, hm, _, _, _⟩ := hJ.out.2.1
              exact hm rfl
            subst hk0
            obtain ⟨b3, c3, w3, e3, e4⟩ := hJ.out.2.2.app hJ.out.1 (by rw [HL.out]; simp) 104 104 rfl
            rw [HL.out] at e4
            have hcv := conv_row' (R.isIn e4.1)
            replace e3 : Hid _ := e3
            have HB4 : Hid (Below V.heap.size V w3) := e4.2.1
            have HH : Hid (hostB (bt ([] ++ [104])) = true) := host_h
            simp only [Nat.zero_add, List.nil_append, List.length_singleton] at hcv HH
            clear hJ e4
            obtain ⟨T, hT⟩ : ∃ T, bt [104] = T := ⟨_, rfl⟩
            rw [hT] at hcv HH
            have PW : Hid (OB w3 (n + 2) ⟨⟨#[104, 116, 116, 112]⟩, ⟨#[]⟩, 80⟩) := HP.out.below HB4.out
            have RW : Hid (OB w3 (n + 1) og0) := HR0.out.below HB4.out
            obtain ⟨p0, p1, p2, q0, q1, q2⟩ := PW.out.cells
            simp only at p0 p1 p2
            obtain ⟨Y, hY⟩ : ∃ Y, w3.setCell ⟨n + 2, 1, none⟩ (.string T) = Y := ⟨_, rfl⟩
            have PY : Hid (OB Y (n + 2) ⟨⟨#[104, 116, 116, 112]⟩, T, 80⟩) := by show OB _ _ _; rw [← hY]; exact PW.out.setH _
            have RY : Hid (OB Y (n + 1) og0) := by show OB _ _ _; rw [← hY]; exact RW.out.keep (setCell_other _ _ _ _ _ (by omega))
            have BY : Hid (Below n w Y) := by rw [← hY]; exact (HB.out.trans (HB4.out.mono (by rw [HSz.out]; omega))).setCell (p := ⟨n + 2, 1, none⟩) (by simp only; omega) _
            obtain ⟨c0, c1, c2, f0, f1, f2⟩ := RY.out.cells
            obtain ⟨k0, k1, k2, _, _, _⟩ := PY.out.cells
            simp only [og0] at c0 c1 c2 k0 k1 k2
            have FG : Hid (OB (setO Y (n + 1) ⟨⟨#[104, 116, 116, 112]⟩, T, 80⟩) (n + 1) ⟨⟨#[104, 116, 116, 112]⟩, T, 80⟩) := RY.out.set _
            have FB : Hid (Below n w (setO Y (n + 1) ⟨⟨#[104, 116, 116, 112]⟩, T, 80⟩)) := BY.out.trans (setO_below _ (by omega))
            clear hT
            go_wp2_with (at_builtin; refine Lib.wpList_append_run _ rfl _ _ _ _ rfl _ _ rfl rfl _ _ e3.out ?_)
            refine bodyPost_ret (results_cell_row (p := 2) (ty := 23) rfl _ _ (n + 1) 23 _ (0, 0) _ rfl FG.out Tryd.underlying23 rfl (by kernel_rfl)) rfl ⟨⟨⟨#[104, 116, 116, 112]⟩, T, 80⟩, rfl, HRT.out T HH.out, ?_⟩
            rw [HN.out]
            exact FB.out
    · go_enter Tryd.func10, Tryd.ntmps10
      go_wp2_with fail
      clear hpt hneg
      obtain ⟨V, hV⟩ : ∃ V, ((w.alloc (.cells #[.string o.s, .string o.h, .int .i64 o.p] 23)).alloc (.cells #[.string ⟨#[]⟩, .string ⟨#[]⟩, .int .i64 0] 23)).alloc (.cells #[.string ⟨#[104, 116, 116, 112]⟩, .string ⟨#[]⟩, .int .i64 (1 + P0)] 23) = V := ⟨_, rfl⟩
      have HSz : Hid (V.heap.size = n + 3) := by show _ = _; rw [← hV, size_al, size_al, size_al, hn]
      have HO : Hid (OB V n o) := by show OB _ _ _; unfold OB; rw [← hV, ← hn, heap_al, if_neg (by simp; omega), heap_al, if_neg (by simp), heap_al, if_pos rfl]; rfl
      have HR0 : Hid (OB V (n + 1) og0) := by show OB _ _ _; unfold OB; rw [← hV, ← hn, heap_al, if_neg (by simp), heap_al, if_pos (by simp)]; rfl
      have HP : Hid (OB V (n + 2) ⟨⟨#[104, 116, 116, 112]⟩, ⟨#[]⟩, (1 + P0)⟩) := by show OB _ _ _; unfold OB; rw [← hV, ← hn]; exact fresh3 _ _ _ _
      have HB : Hid (Below n w V) := by rw [← hV, ← hn]; exact bel3 _ _ _ _
      have HRT : Hid (∀ h, hostB h = true → rtB ⟨⟨#[104, 116, 116, 112]⟩, h, (1 + P0)⟩ = true) := fun h hh => rtB_iff.2 ⟨(by decide : usP (⟨#[104, 116, 116, 112]⟩ : ByteArray) ≠ 0), hh, by simp only; omega, by simp only; omega⟩
      try rw [hn]
      rw [hV]
      clear hV hn hp1 hp2 hP1 hP2 hand
      go_loopw [5, 6] (fun bv iv wr => ∃ (i k c : Nat) (b : Option Addr) (L : List UInt8), bv = .slice b k c ∧ iv = .int .i64 (i : Int) ∧ i ≤ o.h.size ∧ i ≤ 90 ∧ k ≤ 180 ∧ Hid (k = L.length ∧ mInv i L ∧ Rw V wr (.slice b k c) L)) (fun _ iv _ => 90 - (intOf iv).toNat)
      case atStart => exact ⟨0, 0, 0, none, [], rfl, rfl, by omega, by omega, by omega, rfl, mInv.zero, Rw.nil V⟩
      case round =>
        obtain ⟨i, k, c, b, L, rfl, rfl, hi, hi90, hk, hJ⟩ := hrel
        have OW : Hid (OB wr n o) := HO.out.below hJ.out.2.2.2.1
        obtain ⟨d0, d1, d2, _, _, _⟩ := OW.out.cells
        by_cases hlt : i < o.h.size
        · have a1 : (i : Int) < (o.h.size : Int) := by omega
          by_cases h90 : i < 90
          · have a2 : (i : Int) < 90 := by omega
            obtain ⟨x, hx⟩ : ∃ x : UInt8, o.h[i]'hlt = x := ⟨_, rfl⟩
            have hx8 := x.toNat_lt
            obtain ⟨q, hq⟩ : ∃ q : Nat, x.toNat % 36 = q := ⟨_, rfl⟩
            have hqt : (x.toNat : Int).tmod 36 = (q : Int) := by rw [← hq, Int.tmod_eq_emod_of_nonneg (by omega)]; omega
            have hq36 : q < 36 := by omega
            have hq36' : (q : Int) < 36 := by omega
            have hqs : q < sgS.size := by have : sgS.size = 36 := rfl; omega
            obtain ⟨y, hy⟩ : ∃ y : UInt8, sgS[q]'hqs = y := ⟨_, rfl⟩
            have HY : Hid (lbB y = true) := by show _ = _; rw [← hy]; exact sg_lab q hq36
            have hy2 : ((sgS.data[q]'hqs).toNat : Int) = (y.toNat : Int) := by rw [← hy]; rfl
            obtain ⟨r, hr⟩ : ∃ r : Nat, i % 9 = r := ⟨_, rfl⟩
            have hrt : (i : Int).tmod 9 = (r : Int) := by rw [← hr, Int.tmod_eq_emod_of_nonneg (by omega)]; omega
            unfold sgS at hy hqs
            by_cases h8 : r = 8
            · have a3 : ((r : Int) == 8) = true := by rw [h8]; rfl
              obtain ⟨b2, c2, w2, e1, e2⟩ := hJ.out.2.2.app hJ.out.1 (by have := hJ.out.1; omega) 46 46 rfl
              obtain ⟨b3, c3, w3, e3, e4⟩ := e2.app (by simp [hJ.out.1]) (by have := hJ.out.1; simp; omega) y (y.toNat : Int) rfl
              have HN2 : Hid (k + 1 + 1 = (L ++ [46] ++ [y]).length ∧ mInv (i + 1) (L ++ [46] ++ [y]) ∧ Rw V w3 (.slice b3 (k + 1 + 1) c3) (L ++ [46] ++ [y])) := ⟨by simp [hJ.out.1], hJ.out.2.1.dot (by omega) y HY.out, e4⟩
              have hk2 : k + 1 + 1 ≤ 180 := by
                obtain ⟨m, _, _, _, _, hm, _⟩ := HN2.out.2.1
                rw [← HN2.out.1] at hm
                omega
              have OW2 : Hid (OB w2 n o) := HO.out.below e2.2.1
              replace e1 : Hid _ := e1
              replace e3 : Hid _ := e3
              obtain ⟨g0, g1, g2, _, _, _⟩ := OW2.out.cells
              clear hJ h8 hr hq e2 e4
              go_upto_region 15 with (at_builtin; refine Lib.wpList_append_run _ rfl _ _ _ _ rfl _ _ rfl rfl _ _ e1.out ?_)
              clear d0 d1 d2
              go_wp2_with (at_builtin; refine Lib.wpList_append_run _ rfl _ _ _ _ rfl _ _ rfl rfl _ _ e3.out ?_)
              go_roundw
              case rel => exact ⟨i + 1, k + 1 + 1, c3, b3, _, by first | rfl | simp, by simp, by omega, by omega, by omega, HN2.out⟩
              case measure => simp [intOf]; omega
            · have a3 : ((r : Int) == 8) = false := beq_eq_false_iff_ne.2 (by omega)
              obtain ⟨b3, c3, w3, e3, e4⟩ := hJ.out.2.2.app hJ.out.1 (by have := hJ.out.1; omega) y (y.toNat : Int) rfl
              have HN2 : Hid (k + 1 = (L ++ [y]).length ∧ mInv (i + 1) (L ++ [y]) ∧ Rw V w3 (.slice b3 (k + 1) c3) (L ++ [y])) := ⟨by simp [hJ.out.1], hJ.out.2.1.chr (by omega) y HY.out, e4⟩
              have hk2 : k + 1 ≤ 180 := by
                obtain ⟨m, _, _, _, _, hm, _⟩ := HN2.out.2.1
                rw [← HN2.out.1] at hm
                omega
              replace e3 : Hid _ := e3
              clear hJ h8 hr hq e4
              go_wp2_with (at_builtin; refine Lib.wpList_append_run _ rfl _ _ _ _ rfl _ _ rfl rfl _ _ e3.out ?_)
              go_roundw
              case rel => exact ⟨i + 1, k + 1, c3, b3, _, by first | rfl | simp, by simp, by omega, by omega, by omega, HN2.out⟩
              case measure => simp [intOf]; omega
          · have a2 : ¬ (i : Int) < 90 := by omega
            have hi1 : 1 ≤ i := by omega
            have HK : Hid (1 ≤ k) := by
              obtain ⟨m, _, _, _, hm, _, _⟩ := hJ.out.2.1
              show _ ≤ _
              rw [hJ.out.1]
              exact hm hi1
            have a3 : ((k : Int) == 0) = false := beq_eq_false_iff_ne.2 (by have := HK.out; omega)
            have hcv := conv_row' (R.isIn hJ.out.2.2.1)
            have HB4 : Hid (Below V.heap.size V wr) := hJ.out.2.2.2.1
            have HH : Hid (hostB (bt L) = true) := hJ.out.2.1.host hi1 hi90
            clear hJ
            obtain ⟨T, hT⟩ : ∃ T, bt L = T := ⟨_, rfl⟩
            rw [hT] at hcv HH
            have PW : Hid (OB wr (n + 2) ⟨⟨#[104, 116, 116, 112]⟩, ⟨#[]⟩, (1 + P0)⟩) := HP.out.below HB4.out
            have RW : Hid (OB wr (n + 1) og0) := HR0.out.below HB4.out
            obtain ⟨p0, p1, p2, q0, q1, q2⟩ := PW.out.cells
            simp only at p0 p1 p2
            obtain ⟨Y, hY⟩ : ∃ Y, wr.setCell ⟨n + 2, 1, none⟩ (.string T) = Y := ⟨_, rfl⟩
            have PY : Hid (OB Y (n + 2) ⟨⟨#[104, 116, 116, 112]⟩, T, (1 + P0)⟩) := by show OB _ _ _; rw [← hY]; exact PW.out.setH _
            have RY : Hid (OB Y (n + 1) og0) := by show OB _ _ _; rw [← hY]; exact RW.out.keep (setCell_other _ _ _ _ _ (by omega))
            have BY : Hid (Below n w Y) := by rw [← hY]; exact (HB.out.trans (HB4.out.mono (by rw [HSz.out]; omega))).setCell (p := ⟨n + 2, 1, none⟩) (by simp only; omega) _
            obtain ⟨c0, c1, c2, f0, f1, f2⟩ := RY.out.cells
            obtain ⟨k0, k1, k2, _, _, _⟩ := PY.out.cells
            simp only [og0] at c0 c1 c2 k0 k1 k2
            have FG : Hid (OB (setO Y (n + 1) ⟨⟨#[104, 116, 116, 112]⟩, T, (1 + P0)⟩) (n + 1) ⟨⟨#[104, 116, 116, 112]⟩, T, (1 + P0)⟩) := RY.out.set _
            have FB : Hid (Below n w (setO Y (n + 1) ⟨⟨#[104, 116, 116, 112]⟩, T, (1 + P0)⟩)) := BY.out.trans (setO_below _ (by omega))
            clear hT
            go_wp2_with fail
            refine bodyPost_ret (results_cell_row (p := 2) (ty := 23) rfl _ _ (n + 1) 23 _ (0, 0) _ rfl FG.out Tryd.underlying23 rfl (by kernel_rfl)) rfl ⟨⟨⟨#[104, 116, 116, 112]⟩, T, (1 + P0)⟩, rfl, HRT.out T HH.out, ?_⟩
            rw [HN.out]
            exact FB.out
        · have a1 : ¬ (i : Int) < (o.h.size : Int) := by omega
          by_cases hi1 : 1 ≤ i
          · have HK : Hid (1 ≤ k) := by
              obtain ⟨m, _, _, _, hm, _, _⟩ := hJ.out.2.1
              show _ ≤ _
              rw [hJ.out.1]
              exact hm hi1
            have a3 : ((k : Int) == 0) = false := beq_eq_false_iff_ne.2 (by have := HK.out; omega)
            have hcv := conv_row' (R.isIn hJ.out.2.2.1)
            have HB4 : Hid (Below V.heap.size V wr) := hJ.out.2.2.2.1
            have HH : Hid (hostB (bt L) = true) := hJ.out.2.1.host hi1 hi90
            clear hJ
            obtain ⟨T, hT⟩ : ∃ T, bt L = T := ⟨_, rfl⟩
            rw [hT] at hcv HH
            have PW : Hid (OB wr (n + 2) ⟨⟨#[104, 116, 116, 112]⟩, ⟨#[]⟩, (1 + P0)⟩) := HP.out.below HB4.out
            have RW : Hid (OB wr (n + 1) og0) := HR0.out.below HB4.out
            obtain ⟨p0, p1, p2, q0, q1, q2⟩ := PW.out.cells
            simp only at p0 p1 p2
            obtain ⟨Y, hY⟩ : ∃ Y, wr.setCell ⟨n + 2, 1, none⟩ (.string T) = Y := ⟨_, rfl⟩
            have PY : Hid (OB Y (n + 2) ⟨⟨#[104, 116, 116, 112]⟩, T, (1 + P0)⟩) := by show OB _ _ _; rw [← hY]; exact PW.out.setH _
            have RY : Hid (OB Y (n + 1) og0) := by show OB _ _ _; rw [← hY]; exact RW.out.keep (setCell_other _ _ _ _ _ (by omega))
            have BY : Hid (Below n w Y) := by rw [← hY]; exact (HB.out.trans (HB4.out.mono (by rw [HSz.out]; omega))).setCell (p := ⟨n + 2, 1, none⟩) (by simp only; omega) _
            obtain ⟨c0, c1, c2, f0, f1, f2⟩ := RY.out.cells
            obtain ⟨k0, k1, k2, _, _, _⟩ := PY.out.cells
            simp only [og0] at c0 c1 c2 k0 k1 k2
            have FG : Hid (OB (setO Y (n + 1) ⟨⟨#[104, 116, 116, 112]⟩, T, (1 + P0)⟩) (n + 1) ⟨⟨#[104, 116, 116, 112]⟩, T, (1 + P0)⟩) := RY.out.set _
            have FB : Hid (Below n w (setO Y (n + 1) ⟨⟨#[104, 116, 116, 112]⟩, T, (1 + P0)⟩)) := BY.out.trans (setO_below _ (by omega))
            clear hT
            go_wp2_with fail
            refine bodyPost_ret (results_cell_row (p := 2) (ty := 23) rfl _ _ (n + 1) 23 _ (0, 0) _ rfl FG.out Tryd.underlying23 rfl (by kernel_rfl)) rfl ⟨⟨⟨#[104, 116, 116, 112]⟩, T, (1 + P0)⟩, rfl, HRT.out T HH.out, ?_⟩
            rw [HN.out]
            exact FB.out
          · obtain rfl : i = 0 := by omega
            have hk0 : k = 0 := by
              obtain ⟨m, _, _, hm, _, _, _⟩ := hJ.out.2.1
              rw [hJ.out.1, hm rfl]
              rfl
            have HL : Hid (L = []) := by
              obtain ⟨m, _, _, hm, _, _, _⟩ := hJ.out.2.1
              exact hm rfl
            subst hk0
            obtain ⟨b3, c3, w3, e3, e4⟩ := hJ.out.2.2.app hJ.out.1 (by rw [HL.out]; simp) 104 104 rfl
            rw [HL.out] at e4
            have hcv := conv_row' (R.isIn e4.1)
            replace e3 : Hid _ := e3
            have HB4 : Hid (Below V.heap.size V w3) := e4.2.1
            have HH : Hid (hostB (bt ([] ++ [104])) = true) := host_h
            simp only [Nat.zero_add, List.nil_append, List.length_singleton] at hcv HH
            clear hJ e4
            obtain ⟨T, hT⟩ : ∃ T, bt [104] = T := ⟨_, rfl⟩
            rw [hT] at hcv HH
            have PW : Hid (OB w3 (n + 2) ⟨⟨#[104, 116, 116, 112]⟩, ⟨#[]⟩, (1 + P0)⟩) := HP.out.below HB4.out
            have RW : Hid (OB w3 (n + 1) og0) := HR0.out.below HB4.out
            obtain ⟨p0, p1, p2, q0, q1, q2⟩ := PW.out.cells
            simp only at p0 p1 p2
            obtain ⟨Y, hY⟩ : ∃ Y, w3.setCell ⟨n + 2, 1, none⟩ (.string T) = Y := ⟨_, rfl⟩
            have PY : Hid (OB Y (n + 2) ⟨⟨#[104, 116, 116, 112]⟩, T, (1 + P0)⟩) := by show OB _ _ _; rw [← hY]; exact PW.out.setH _
            have RY : Hid (OB Y (n + 1) og0) := by show OB _ _ _; rw [← hY]; exact RW.out.keep (setCell_other _ _ _ _ _ (by omega))
            have BY : Hid (Below n w Y) := by rw [← hY]; exact (HB.out.trans (HB4.out.mono (by rw [HSz.out]; omega))).setCell (p := ⟨n + 2, 1, none⟩) (by simp only; omega) _
            obtain ⟨c0, c1, c2, f0, f1, f2⟩ := RY.out.cells
            obtain ⟨k0, k1, k2, _, _, _⟩ := PY.out.cells
            simp only [og0] at c0 c1 c2 k0 k1 k2
            have FG : Hid (OB (setO Y (n + 1) ⟨⟨#[104, 116, 116, 112]⟩, T, (1 + P0)⟩) (n + 1) ⟨⟨#[104, 116, 116, 112]⟩, T, (1 + P0)⟩) := RY.out.set _
            have FB : Hid (Below n w (setO Y (n + 1) ⟨⟨#[104, 116, 116, 112]⟩, T, (1 + P0)⟩)) := BY.out.trans (setO_below _ (by omega))
            clear hT
            go_wp2_with (at_builtin; refine Lib.wpList_append_run _ rfl _ _ _ _ rfl _ _ rfl rfl _ _ e3.out ?_)
            refine bodyPost_ret (results_cell_row (p := 2) (ty := 23) rfl _ _ (n + 1) 23 _ (0, 0) _ rfl FG.out Tryd.underlying23 rfl (by kernel_rfl)) rfl ⟨⟨⟨#[104, 116, 116, 112]⟩, T, (1 + P0)⟩, rfl, HRT.out T HH.out, ?_⟩
            rw [HN.out]
            exact FB.out
  · have hpt : (o.s.size : Int).tmod 2 = 1 := by rw [Int.tmod_eq_emod_of_nonneg (by omega)]; omega
    clear hpar
    by_cases hneg : o.p < 0
    · go_enter Tryd.func10, Tryd.ntmps10
      go_wp2_with fail
      clear hpt hneg
      obtain ⟨V, hV⟩ : ∃ V, ((w.alloc (.cells #[.string o.s, .string o.h, .int .i64 o.p] 23)).alloc (.cells #[.string ⟨#[]⟩, .string ⟨#[]⟩, .int .i64 0] 23)).alloc (.cells #[.string ⟨#[104, 116, 116, 112, 115]⟩, .string ⟨#[]⟩, .int .i64 443] 23) = V := ⟨_, rfl⟩
      have HSz : Hid (V.heap.size = n + 3) := by show _ = _; rw [← hV, size_al, size_al, size_al, hn]
      have HO : Hid (OB V n o) := by show OB _ _ _; unfold OB; rw [← hV, ← hn, heap_al, if_neg (by simp; omega), heap_al, if_neg (by simp), heap_al, if_pos rfl]; rfl
      have HR0 : Hid (OB V (n + 1) og0) := by show OB _ _ _; unfold OB; rw [← hV, ← hn, heap_al, if_neg (by simp), heap_al, if_pos (by simp)]; rfl
      have HP : Hid (OB V (n + 2) ⟨⟨#[104, 116, 116, 112, 115]⟩, ⟨#[]⟩, 443⟩) := by show OB _ _ _; unfold OB; rw [← hV, ← hn]; exact fresh3 _ _ _ _
      have HB : Hid (Below n w V) := by rw [← hV, ← hn]; exact bel3 _ _ _ _
      have HRT : Hid (∀ h, hostB h = true → rtB ⟨⟨#[104, 116, 116, 112, 115]⟩, h, 443⟩ = true) := fun h hh => rtB_iff.2 ⟨(by decide : usP (⟨#[104, 116, 116, 112, 115]⟩ : ByteArray) ≠ 0), hh, by simp only; omega, by simp only; omega⟩
      try rw [hn]
      rw [hV]
      clear hV hn hp1 hp2 hP1 hP2 hand
      go_loopw [5, 6] (fun bv iv wr => ∃ (i k c : Nat) (b : Option Addr) (L : List UInt8), bv = .slice b k c ∧ iv = .int .i64 (i : Int) ∧ i ≤ o.h.size ∧ i ≤ 90 ∧ k ≤ 180 ∧ Hid (k = L.length ∧ mInv i L ∧ Rw V wr (.slice b k c) L)) (fun _ iv _ => 90 - (intOf iv).toNat)
      case atStart => exact ⟨0, 0, 0, none, [], rfl, rfl, by omega, by omega, by omega, rfl, mInv.zero, Rw.nil V⟩
      case round =>
        obtain ⟨i, k, c, b, L, rfl, rfl, hi, hi90, hk, hJ⟩ := hrel
        have OW : Hid (OB wr n o) := HO.out.below hJ.out.2.2.2.1
        obtain ⟨d0, d1, d2, _, _, _⟩ := OW.out.cells
        by_cases hlt : i < o.h.size
        · have a1 : (i : Int) < (o.h.size : Int) := by omega
          by_cases h90 : i < 90
          · have a2 : (i : Int) < 90 := by omega
            obtain ⟨x, hx⟩ : ∃ x : UInt8, o.h[i]'hlt = x := ⟨_, rfl⟩
            have hx8 := x.toNat_lt
            obtain ⟨q, hq⟩ : ∃ q : Nat, x.toNat % 36 = q := ⟨_, rfl⟩
            have hqt : (x.toNat : Int).tmod 36 = (q : Int) := by rw [← hq, Int.tmod_eq_emod_of_nonneg (by omega)]; omega
            have hq36 : q < 36 := by omega
            have hq36' : (q : Int) < 36 := by omega
            have hqs : q < sgS.size := by have : sgS.size = 36 := rfl; omega
            obtain ⟨y, hy⟩ : ∃ y : UInt8, sgS[q]'hqs = y := ⟨_, rfl⟩
            have HY : Hid (lbB y = true) := by show _ = _; rw [← hy]; exact sg_lab q hq36
            have hy2 : ((sgS.data[q]'hqs).toNat : Int) = (y.toNat : Int) := by rw [← hy]; rfl
            obtain ⟨r, hr⟩ : ∃ r : Nat, i % 9 = r := ⟨_, rfl⟩
            have hrt : (i : Int).tmod 9 = (r : Int) := by rw [← hr, Int.tmod_eq_emod_of_nonneg (by omega)]; omega
            unfold sgS at hy hqs
            by_cases h8 : r = 8
            · have a3 : ((r : Int) == 8) = true := by rw [h8]; rfl
              obtain ⟨b2, c2, w2, e1, e2⟩ := hJ.out.2.2.app hJ.out.1 (by have := hJ.out.1; omega) 46 46 rfl
              obtain ⟨b3, c3, w3, e3, e4⟩ := e2.app (by simp [hJ.out.1]) (by have := hJ.out.1; simp; omega) y (y.toNat : Int) rfl
              have HN2 : Hid (k + 1 + 1 = (L ++ [46] ++ [y]).length ∧ mInv (i + 1) (L ++ [46] ++ [y]) ∧ Rw V w3 (.slice b3 (k + 1 + 1) c3) (L ++ [46] ++ [y])) := ⟨by simp [hJ.out.1], hJ.out.2.1.dot (by omega) y HY.out, e4⟩
              have hk2 : k + 1 + 1 ≤ 180 := by
                obtain ⟨m, _, _, _, _, hm, _⟩ := HN2.out.2.1
                rw [← HN2.out.1] at hm
                omega
              have OW2 : Hid (OB w2 n o) := HO.out.below e2.2.1
              replace e1 : Hid _ := e1
              replace e3 : Hid _ := e3
              obtain ⟨g0, g1, g2, _, _, _⟩ := OW2.out.cells
              clear hJ h8 hr hq e2 e4
              go_upto_region 15 with (at_builtin; refine Lib.wpList_append_run _ rfl _ _ _ _ rfl _ _ rfl rfl _ _ e1.out ?_)
              clear d0 d1 d2
              go_wp2_with (at_builtin; refine Lib.wpList_append_run _ rfl _ _ _ _ rfl _ _ rfl rfl _ _ e3.out ?_)
              go_roundw
              case rel => exact ⟨i + 1, k + 1 + 1, c3, b3, _, by first | rfl | simp, by simp, by omega, by omega, by omega, HN2.out⟩
              case measure => simp [intOf]; omega
            · have a3 : ((r : Int) == 8) = false := beq_eq_false_iff_ne.2 (by omega)
              obtain ⟨b3, c3, w3, e3, e4⟩ := hJ.out.2.2.app hJ.out.1 (by have := hJ.out.1; omega) y (y.toNat : Int) rfl
              have HN2 : Hid (k + 1 = (L ++ [y]).length ∧ mInv (i + 1) (L ++ [y]) ∧ Rw V w3 (.slice b3 (k + 1) c3) (L ++ [y])) := ⟨by simp [hJ.out.1], hJ.out.2.1.chr (by omega) y HY.out, e4⟩
              have hk2 : k + 1 ≤ 180 := by
                obtain ⟨m, _, _, _, _, hm, _⟩ := HN2.out.2.1
                rw [← HN2.out.1] at hm
                omega
              replace e3 : Hid _ := e3
              clear hJ h8 hr hq e4
              go_wp2_with (at_builtin; refine Lib.wpList_append_run _ rfl _ _ _ _ rfl _ _ rfl rfl _ _ e3.out ?_)
              go_roundw
              case rel => exact ⟨i + 1, k + 1, c3, b3, _, by first | rfl | simp, by simp, by omega, by omega, by omega, HN2.out⟩
              case measure => simp [intOf]; omega
          · have a2 : ¬ (i : Int) < 90 := by omega
            have hi1 : 1 ≤ i := by omega
            have HK : Hid (1 ≤ k) := by
              obtain ⟨m, _, _, _, hm, _, _⟩ := hJ.out.2.1
              show _ ≤ _
              rw [hJ.out.1]
              exact hm hi1
            have a3 : ((k : Int) == 0) = false := beq_eq_false_iff_ne.2 (by have := HK.out; omega)
            have hcv := conv_row' (R.isIn hJ.out.2.2.1)
            have HB4 : Hid (Below V.heap.size V wr) := hJ.out.2.2.2.1
            have HH : Hid (hostB (bt L) = true) := hJ.out.2.1.host hi1 hi90
            clear hJ
            obtain ⟨T, hT⟩ : ∃ T, bt L = T := ⟨_, rfl⟩
            rw [hT] at hcv HH
            have PW : Hid (OB wr (n + 2) ⟨⟨#[104, 116, 116, 112, 115]⟩, ⟨#[]⟩, 443⟩) := HP.out.below HB4.out
            have RW : Hid (OB wr (n + 1) og0) := HR0.out.below HB4.out
            obtain ⟨p0, p1, p2, q0, q1, q2⟩ := PW.out.cells
            simp only at p0 p1 p2
            obtain ⟨Y, hY⟩ : ∃ Y, wr.setCell ⟨n + 2, 1, none⟩ (.string T) = Y := ⟨_, rfl⟩
            have PY : Hid (OB Y (n + 2) ⟨⟨#[104, 116, 116, 112, 115]⟩, T, 443⟩) := by show OB _ _ _; rw [← hY]; exact PW.out.setH _
            have RY : Hid (OB Y (n + 1) og0) := by show OB _ _ _; rw [← hY]; exact RW.out.keep (setCell_other _ _ _ _ _ (by omega))
            have BY : Hid (Below n w Y) := by rw [← hY]; exact (HB.out.trans (HB4.out.mono (by rw [HSz.out]; omega))).setCell (p := ⟨n + 2, 1, none⟩) (by simp only; omega) _
            obtain ⟨c0, c1, c2, f0, f1, f2⟩ := RY.out.cells
            obtain ⟨k0, k1, k2, _, _, _⟩ := PY.out.cells
            simp only [og0] at c0 c1 c2 k0 k1 k2
            have FG : Hid (OB (setO Y (n + 1) ⟨⟨#[104, 116, 116, 112, 115]⟩, T, 443⟩) (n + 1) ⟨⟨#[104, 116, 116, 112, 115]⟩, T, 443⟩) := RY.out.set _
            have FB : Hid (Below n w (setO Y (n + 1) ⟨⟨#[104, 116, 116, 112, 115]⟩, T, 443⟩)) := BY.out.trans (setO_below _ (by omega))
            clear hT
            go_wp2_with fail
            refine bodyPost_ret (results_cell_row (p := 2) (ty := 23) rfl _ _ (n + 1) 23 _ (0, 0) _ rfl FG.out Tryd.underlying23 rfl (by kernel_rfl)) rfl ⟨⟨⟨#[104, 116, 116, 112, 115]⟩, T, 443⟩, rfl, HRT.out T HH.out, ?_⟩
            rw [HN.out]
            exact FB.out
        · have a1 : ¬ (i : Int) < (o.h.size : Int) := by omega
          by_cases hi1 : 1 ≤ i
          · have HK : Hid (1 ≤ k) := by
              obtain ⟨m, _, _, _, hm, _, _⟩ := hJ.out.2.1
              show _ ≤ _
              rw [hJ.out.1]
              exact hm hi1
            have a3 : ((k : Int) == 0) = false := beq_eq_false_iff_ne.2 (by have := HK.out; omega)
            have hcv := conv_row' (R.isIn hJ.out.2.2.1)
            have HB4 : Hid (Below V.heap.size V wr) := hJ.out.2.2.2.1
            have HH : Hid (hostB (bt L) = true) := hJ.out.2.1.host hi1 hi90
            clear hJ
            obtain ⟨T, hT⟩ : ∃ T, bt L = T := ⟨_, rfl⟩
            rw [hT] at hcv HH
            have PW : Hid (OB wr (n + 2) ⟨⟨#[104, 116, 116, 112, 115]⟩, ⟨#[]⟩, 443⟩) := HP.out.below HB4.out
            have RW : Hid (OB wr (n + 1) og0) := HR0.out.below HB4.out
            obtain ⟨p0, p1, p2, q0, q1, q2⟩ := PW.out.cells
            simp only at p0 p1 p2
            obtain ⟨Y, hY⟩ : ∃ Y, wr.setCell ⟨n + 2, 1, none⟩ (.string T) = Y := ⟨_, rfl⟩
            have PY : Hid (OB Y (n + 2) ⟨⟨#[104, 116, 116, 112, 115]⟩, T, 443⟩) := by show OB _ _ _; rw [← hY]; exact PW.out.setH _
            have RY : Hid (OB Y (n + 1) og0) := by show OB _ _ _; rw [← hY]; exact RW.out.keep (setCell_other _ _ _ _ _ (by omega))
            have BY : Hid (Below n w Y) := by rw [← hY]; exact (HB.out.trans (HB4.out.mono (by rw [HSz.out]; omega))).setCell (p := ⟨n + 2, 1, none⟩) (by simp only; omega) _
            obtain ⟨c0, c1, c2, f0, f1, f2⟩ := RY.out.cells
            obtain ⟨k0, k1, k2, _, _, _⟩ := PY.out.cells
            simp only [og0] at c0 c1 c2 k0 k1 k2
            have FG : Hid (OB (setO Y (n + 1) ⟨⟨#[104, 116, 116, 112, 115]⟩, T, 443⟩) (n + 1) ⟨⟨#[104, 116, 116, 112, 115]⟩, T, 443⟩) := RY.out.set _
            have FB : Hid (Below n w (setO Y (n + 1) ⟨⟨#[104, 116, 116, 112, 115]⟩, T, 443⟩)) := BY.out.trans (setO_below _ (by omega))
            clear hT
            go_wp2_with fail
            refine bodyPost_ret (results_cell_row (p := 2) (ty := 23) rfl _ _ (n + 1) 23 _ (0, 0) _ rfl FG.out Tryd.underlying23 rfl (by kernel_rfl)) rfl ⟨⟨⟨#[104, 116, 116, 112, 115]⟩, T, 443⟩, rfl, HRT.out T HH.out, ?_⟩
            rw [HN.out]
            exact FB.out
          · obtain rfl : i = 0 := by omega
            have hk0 : k = 0 := by
              obtain ⟨m, _, _, hm, _, _, _⟩ := hJ.out.2.1
              rw [hJ.out.1, hm rfl]
              rfl
            have HL : Hid (L = []) := by
              obtain ⟨m, _, _, hm, _, _, _⟩ := hJ.out.2.1
              exact hm rfl
            subst hk0
            obtain ⟨b3, c3, w3, e3, e4⟩ := hJ.out.2.2.app hJ.out.1 (by rw [HL.out]; simp) 104 104 rfl
            rw [HL.out] at e4
            have hcv := conv_row' (R.isIn e4.1)
            replace e3 : Hid _ := e3
            have HB4 : Hid (Below V.heap.size V w3) := e4.2.1
            have HH : Hid (hostB (bt ([] ++ [104])) = true) := host_h
            simp only [Nat.zero_add, List.nil_append, List.length_singleton] at hcv HH
            clear hJ e4
            obtain ⟨T, hT⟩ : ∃ T, bt [104] = T := ⟨_, rfl⟩
            rw [hT] at hcv HH
            have PW : Hid (OB w3 (n + 2) ⟨⟨#[104, 116, 116, 112, 115]⟩, ⟨#[]⟩, 443⟩) := HP.out.below HB4.out
            have RW : Hid (OB w3 (n + 1) og0) := HR0.out.below HB4.out
            obtain ⟨p0, p1, p2, q0, q1, q2⟩ := PW.out.cells
            simp only at p0 p1 p2
            obtain ⟨Y, hY⟩ : ∃ Y, w3.setCell ⟨n + 2, 1, none⟩ (.string T) = Y := ⟨_, rfl⟩
            have PY : Hid (OB Y (n + 2) ⟨⟨#[104, 116, 116, 112, 115]⟩, T, 443⟩) := by show OB _ _ _; rw [← hY]; exact PW.out.setH _
            have RY : Hid (OB Y (n + 1) og0) := by show OB _ _ _; rw [← hY]; exact RW.out.keep (setCell_other _ _ _ _ _ (by omega))
            have BY : Hid (Below n w Y) := by rw [← hY]; exact (HB.out.trans (HB4.out.mono (by rw [HSz.out]; omega))).setCell (p := ⟨n + 2, 1, none⟩) (by simp only; omega) _
            obtain ⟨c0, c1, c2, f0, f1, f2⟩ := RY.out.cells
            obtain ⟨k0, k1, k2, _, _, _⟩ := PY.out.cells
            simp only [og0] at c0 c1 c2 k0 k1 k2
            have FG : Hid (OB (setO Y (n + 1) ⟨⟨#[104, 116, 116, 112, 115]⟩, T, 443⟩) (n + 1) ⟨⟨#[104, 116, 116, 112, 115]⟩, T, 443⟩) := RY.out.set _
            have FB : Hid (Below n w (setO Y (n + 1) ⟨⟨#[104, 116, 116, 112, 115]⟩, T, 443⟩)) := BY.out.trans (setO_below _ (by omega))
            clear hT
            go_wp2_with (at_builtin; refine Lib.wpList_append_run _ rfl _ _ _ _ rfl _ _ rfl rfl _ _ e3.out ?_)
            refine bodyPost_ret (results_cell_row (p := 2) (ty := 23) rfl _ _ (n + 1) 23 _ (0, 0) _ rfl FG.out Tryd.underlying23 rfl (by kernel_rfl)) rfl ⟨⟨⟨#[104, 116, 116, 112, 115]⟩, T, 443⟩, rfl, HRT.out T HH.out, ?_⟩
            rw [HN.out]
            exact FB.out
    · go_enter Tryd.func10, Tryd.ntmps10
      go_wp2_with fail
      clear hpt hneg
      obtain ⟨V, hV⟩ : ∃ V, ((w.alloc (.cells #[.string o.s, .string o.h, .int .i64 o.p] 23)).alloc (.cells #[.string ⟨#[]⟩, .string ⟨#[]⟩, .int .i64 0] 23)).alloc (.cells #[.string ⟨#[104, 116, 116, 112, 115]⟩, .string ⟨#[]⟩, .int .i64 (1 + P0)] 23) = V := ⟨_, rfl⟩
      have HSz : Hid (V.heap.size = n + 3) := by show _ = _; rw [← hV, size_al, size_al, size_al, hn]
      have HO : Hid (OB V n o) := by show OB _ _ _; unfold OB; rw [← hV, ← hn, heap_al, if_neg (by simp; omega), heap_al, if_neg (by simp), heap_al, if_pos rfl]; rfl
      have HR0 : Hid (OB V (n + 1) og0) := by show OB _ _ _; unfold OB; rw [← hV, ← hn, heap_al, if_neg (by simp), heap_al, if_pos (by simp)]; rfl
      have HP : Hid (OB V (n + 2) ⟨⟨#[104, 116, 116, 112, 115]⟩, ⟨#[]⟩, (1 + P0)⟩) := by show OB _ _ _; unfold OB; rw [← hV, ← hn]; exact fresh3 _ _ _ _
      have HB : Hid (Below n w V) := by rw [← hV, ← hn]; exact bel3 _ _ _ _
      have HRT : Hid (∀ h, hostB h = true → rtB ⟨⟨#[104, 116, 116, 112, 115]⟩, h, (1 + P0)⟩ = true) := fun h hh => rtB_iff.2 ⟨(by decide : usP (⟨#[104, 116, 116, 112, 115]⟩ : ByteArray) ≠ 0), hh, by simp only; omega, by simp only; omega⟩
      try rw [hn]
      rw [hV]
      clear hV hn hp1 hp2 hP1 hP2 hand
      go_loopw [5, 6] (fun bv iv wr => ∃ (i k c : Nat) (b : Option Addr) (L : List UInt8), bv = .slice b k c ∧ iv = .int .i64 (i : Int) ∧ i ≤ o.h.size ∧ i ≤ 90 ∧ k ≤ 180 ∧ Hid (k = L.length ∧ mInv i L ∧ Rw V wr (.slice b k c) L)) (fun _ iv _ => 90 - (intOf iv).toNat)
      case atStart => exact ⟨0, 0, 0, none, [], rfl, rfl, by omega, by omega, by omega, rfl, mInv.zero, Rw.nil V⟩
      case round =>
        obtain ⟨i, k, c, b, L, rfl, rfl, hi, hi90, hk, hJ⟩ := hrel
        have OW : Hid (OB wr n o) := HO.out.below hJ.out.2.2.2.1
        obtain ⟨d0, d1, d2, _, _, _⟩ := OW.out.cells
        by_cases hlt : i < o.h.size
        · have a1 : (i : Int) < (o.h.size : Int) := by omega
          by_cases h90 : i < 90
          · have a2 : (i : Int) < 90 := by omega
            obtain ⟨x, hx⟩ : ∃ x : UInt8, o.h[i]'hlt = x := ⟨_, rfl⟩
            have hx8 := x.toNat_lt
            obtain ⟨q, hq⟩ : ∃ q : Nat, x.toNat % 36 = q := ⟨_, rfl⟩
            have hqt : (x.toNat : Int).tmod 36 = (q : Int) := by rw [← hq, Int.tmod_eq_emod_of_nonneg (by omega)]; omega
            have hq36 : q < 36 := by omega
            have hq36' : (q : Int) < 36 := by omega
            have hqs : q < sgS.size := by have : sgS.size = 36 := rfl; omega
            obtain ⟨y, hy⟩ : ∃ y : UInt8, sgS[q]'hqs = y := ⟨_, rfl⟩
            have HY : Hid (lbB y = true) := by show _ = _; rw [← hy]; exact sg_lab q hq36
            have hy2 : ((sgS.data[q]'hqs).toNat : Int) = (y.toNat : Int) := by rw [← hy]; rfl
            obtain ⟨r, hr⟩ : ∃ r : Nat, i % 9 = r := ⟨_, rfl⟩
            have hrt : (i : Int).tmod 9 = (r : Int) := by rw [← hr, Int.tmod_eq_emod_of_nonneg (by omega)]; omega
            unfold sgS at hy hqs
            by_cases h8 : r = 8
            · have a3 : ((r : Int) == 8) = true := by rw [h8]; rfl
              obtain ⟨b2, c2, w2, e1, e2⟩ := hJ.out.2.2.app hJ.out.1 (by have := hJ.out.1; omega) 46 46 rfl
              obtain ⟨b3, c3, w3, e3, e4⟩ := e2.app (by simp [hJ.out.1]) (by have := hJ.out.1; simp; omega) y (y.toNat : Int) rfl
              have HN2 : Hid (k + 1 + 1 = (L ++ [46] ++ [y]).length ∧ mInv (i + 1) (L ++ [46] ++ [y]) ∧ Rw V w3 (.slice b3 (k + 1 + 1) c3) (L ++ [46] ++ [y])) := ⟨by simp [hJ.out.1], hJ.out.2.1.dot (by omega) y HY.out, e4⟩
              have hk2 : k + 1 + 1 ≤ 180 := by
                obtain ⟨m, _, _, _, _, hm, _⟩ := HN2.out.2.1
                rw [← HN2.out.1] at hm
                omega
              have OW2 : Hid (OB w2 n o) := HO.out.below e2.2.1
              replace e1 : Hid _ := e1
              replace e3 : Hid _ := e3
              obtain ⟨g0, g1, g2, _, _, _⟩ := OW2.out.cells
              clear hJ h8 hr hq e2 e4
              go_upto_region 15 with (at_builtin; refine Lib.wpList_append_run _ rfl _ _ _ _ rfl _ _ rfl rfl _ _ e1.out ?_)
              clear d0 d1 d2
              go_wp2_with (at_builtin; refine Lib.wpList_append_run _ rfl _ _ _ _ rfl _ _ rfl rfl _ _ e3.out ?_)
              go_roundw
              case rel => exact ⟨i + 1, k + 1 + 1, c3, b3, _, by first | rfl | simp, by simp, by omega, by omega, by omega, HN2.out⟩
              case measure => simp [intOf]; omega
            · have a3 : ((r : Int) == 8) = false := beq_eq_false_iff_ne.2 (by omega)
              obtain ⟨b3, c3, w3, e3, e4⟩ := hJ.out.2.2.app hJ.out.1 (by have := hJ.out.1; omega) y (y.toNat : Int) rfl
              have HN2 : Hid (k + 1 = (L ++ [y]).length ∧ mInv (i + 1) (L ++ [y]) ∧ Rw V w3 (.slice b3 (k + 1) c3) (L ++ [y])) := ⟨by simp [hJ.out.1], hJ.out.2.1.chr (by omega) y HY.out, e4⟩
              have hk2 : k + 1 ≤ 180 := by
                obtain ⟨m, _, _, _, _, hm, _⟩ := HN2.out.2.1
                rw [← HN2.out.1] at hm
                omega
              replace e3 : Hid _ := e3
              clear hJ h8 hr hq e4
              go_wp2_with (at_builtin; refine Lib.wpList_append_run _ rfl _ _ _ _ rfl _ _ rfl rfl _ _ e3.out ?_)
              go_roundw
              case rel => exact ⟨i + 1, k + 1, c3, b3, _, by first | rfl | simp, by simp, by omega, by omega, by omega, HN2.out⟩
              case measure => simp [intOf]; omega
          · have a2 : ¬ (i : Int) < 90 := by omega
            have hi1 : 1 ≤ i := by omega
            have HK : Hid (1 ≤ k) := by
              obtain ⟨m, _, _, _, hm, _, _⟩ := hJ.out.2.1
              show _ ≤ _
              rw [hJ.out.1]
              exact hm hi1
            have a3 : ((k : Int) == 0) = false := beq_eq_false_iff_ne.2 (by have := HK.out; omega)
            have hcv := conv_row' (R.isIn hJ.out.2.2.1)
            have HB4 : Hid (Below V.heap.size V wr) := hJ.out.2.2.2.1
            have HH : Hid (hostB (bt L) = true) := hJ.out.2.1.host hi1 hi90
            clear hJ
            obtain ⟨T, hT⟩ : ∃ T, bt L = T := ⟨_, rfl⟩
            rw [hT] at hcv HH
            have PW : Hid (OB wr (n + 2) ⟨⟨#[104, 116, 116, 112, 115]⟩, ⟨#[]⟩, (1 + P0)⟩) := HP.out.below HB4.out
            have RW : Hid (OB wr (n + 1) og0) := HR0.out.below HB4.out
            obtain ⟨p0, p1, p2, q0, q1, q2⟩ := PW.out.cells
            simp only at p0 p1 p2
            obtain ⟨Y, hY⟩ : ∃ Y, wr.setCell ⟨n + 2, 1, none⟩ (.string T) = Y := ⟨_, rfl⟩
            have PY : Hid (OB Y (n + 2) ⟨⟨#[104, 116, 116, 112, 115]⟩, T, (1 + P0)⟩) := by show OB _ _ _; rw [← hY]; exact PW.out.setH _
            have RY : Hid (OB Y (n + 1) og0) := by show OB _ _ _; rw [← hY]; exact RW.out.keep (setCell_other _ _ _ _ _ (by omega))
            have BY : Hid (Below n w Y) := by rw [← hY]; exact (HB.out.trans (HB4.out.mono (by rw [HSz.out]; omega))).setCell (p := ⟨n + 2, 1, none⟩) (by simp only; omega) _
            obtain ⟨c0, c1, c2, f0, f1, f2⟩ := RY.out.cells
            obtain ⟨k0, k1, k2, _, _, _⟩ := PY.out.cells
            simp only [og0] at c0 c1 c2 k0 k1 k2
            have FG : Hid (OB (setO Y (n + 1) ⟨⟨#[104, 116, 116, 112, 115]⟩, T, (1 + P0)⟩) (n + 1) ⟨⟨#[104, 116, 116, 112, 115]⟩, T, (1 + P0)⟩) := RY.out.set _
            have FB : Hid (Below n w (setO Y (n + 1) ⟨⟨#[104, 116, 116, 112, 115]⟩, T, (1 + P0)⟩)) := BY.out.trans (setO_below _ (by omega))
            clear hT
            go_wp2_with fail
            refine bodyPost_ret (results_cell_row (p := 2) (ty := 23) rfl _ _ (n + 1) 23 _ (0, 0) _ rfl FG.out Tryd.underlying23 rfl (by kernel_rfl)) rfl ⟨⟨⟨#[104, 116, 116, 112, 115]⟩, T, (1 + P0)⟩, rfl, HRT.out T HH.out, ?_⟩
            rw [HN.out]
            exact FB.out
        · have a1 : ¬ (i : Int) < (o.h.size : Int) := by omega
          by_cases hi1 : 1 ≤ i
          · have HK : Hid (1 ≤ k) := by
              obtain ⟨m, _, _, _, hm, _, _⟩ := hJ.out.2.1
              show _ ≤ _
              rw [hJ.out.1]
              exact hm hi1
            have a3 : ((k : Int) == 0) = false := beq_eq_false_iff_ne.2 (by have := HK.out; omega)
            have hcv := conv_row' (R.isIn hJ.out.2.2.1)
            have HB4 : Hid (Below V.heap.size V wr) := hJ.out.2.2.2.1
            have HH : Hid (hostB (bt L) = true) := hJ.out.2.1.host hi1 hi90
            clear hJ
            obtain ⟨T, hT⟩ : ∃ T, bt L = T := ⟨_, rfl⟩
            rw [hT] at hcv HH
            have PW : Hid (OB wr (n + 2) ⟨⟨#[104, 116, 116, 112, 115]⟩, ⟨#[]⟩, (1 + P0)⟩) := HP.out.below HB4.out
            have RW : Hid (OB wr (n + 1) og0) := HR0.out.below HB4.out
            obtain ⟨p0, p1, p2, q0, q1, q2⟩ := PW.out.cells
            simp only at p0 p1 p2
            obtain ⟨Y, hY⟩ : ∃ Y, wr.setCell ⟨n + 2, 1, none⟩ (.string T) = Y := ⟨_, rfl⟩
            have PY : Hid (OB Y (n + 2) ⟨⟨#[104, 116, 116, 112, 115]⟩, T, (1 + P0)⟩) := by show OB _ _ _; rw [← hY]; exact PW.out.setH _
            have RY : Hid (OB Y (n + 1) og0) := by show OB _ _ _; rw [← hY]; exact RW.out.keep (setCell_other _ _ _ _ _ (by omega))
            have BY : Hid (Below n w Y) := by rw [← hY]; exact (HB.out.trans (HB4.out.mono (by rw [HSz.out]; omega))).setCell (p := ⟨n + 2, 1, none⟩) (by simp only; omega) _
            obtain ⟨c0, c1, c2, f0, f1, f2⟩ := RY.out.cells
            obtain ⟨k0, k1, k2, _, _, _⟩ := PY.out.cells
            simp only [og0] at c0 c1 c2 k0 k1 k2
            have FG : Hid (OB (setO Y (n + 1) ⟨⟨#[104, 116, 116, 112, 115]⟩, T, (1 + P0)⟩) (n + 1) ⟨⟨#[104, 116, 116, 112, 115]⟩, T, (1 + P0)⟩) := RY.out.set _
            have FB : Hid (Below n w (setO Y (n + 1) ⟨⟨#[104, 116, 116, 112, 115]⟩, T, (1 + P0)⟩)) := BY.out.trans (setO_below _ (by omega))
            clear hT
            go_wp2_with fail
            refine bodyPost_ret (results_cell_row (p := 2) (ty := 23) rfl _ _ (n + 1) 23 _ (0, 0) _ rfl FG.out Tryd.underlying23 rfl (by kernel_rfl)) rfl ⟨⟨⟨#[104, 116, 116, 112, 115]⟩, T, (1 + P0)⟩, rfl, HRT.out T HH.out, ?_⟩
            rw [HN.out]
            exact FB.out
          · obtain rfl : i = 0 := by omega
            have hk0 : k = 0 := by
              obtain ⟨m, _, _, hm, _, _, _⟩ := hJ.out.2.1
              rw [hJ.out.1, hm rfl]
              rfl
            have HL : Hid (L = []) := by
              obtain ⟨m, _, _, hm, _, _, _⟩ := hJ.out.2.1
              exact hm rfl
            subst hk0
            obtain ⟨b3, c3, w3, e3, e4⟩ := hJ.out.2.2.app hJ.out.1 (by rw [HL.out]; simp) 104 104 rfl
            rw [HL.out] at e4
            have hcv := conv_row' (R.isIn e4.1)
            replace e3 : Hid _ := e3
            have HB4 : Hid (Below V.heap.size V w3) := e4.2.1
            have HH : Hid (hostB (bt ([] ++ [104])) = true) := host_h
            simp only [Nat.zero_add, List.nil_append, List.length_singleton] at hcv HH
            clear hJ e4
            obtain ⟨T, hT⟩ : ∃ T, bt [104] = T := ⟨_, rfl⟩
            rw [hT] at hcv HH
            have PW : Hid (OB w3 (n + 2) ⟨⟨#[104, 116, 116, 112, 115]⟩, ⟨#[]⟩, (1 + P0)⟩) := HP.out.below HB4.out
            have RW : Hid (OB w3 (n + 1) og0) := HR0.out.below HB4.out
            obtain ⟨p0, p1, p2, q0, q1, q2⟩ := PW.out.cells
            simp only at p0 p1 p2
            obtain ⟨Y, hY⟩ : ∃ Y, w3.setCell ⟨n + 2, 1, none⟩ (.string T) = Y := ⟨_, rfl⟩
            have PY : Hid (OB Y (n + 2) ⟨⟨#[104, 116, 116, 112, 115]⟩, T, (1 + P0)⟩) := by show OB _ _ _; rw [← hY]; exact PW.out.setH _
            have RY : Hid (OB Y (n + 1) og0) := by show OB _ _ _; rw [← hY]; exact RW.out.keep (setCell_other _ _ _ _ _ (by omega))
            have BY : Hid (Below n w Y) := by rw [← hY]; exact (HB.out.trans (HB4.out.mono (by rw [HSz.out]; omega))).setCell (p := ⟨n + 2, 1, none⟩) (by simp only; omega) _
            obtain ⟨c0, c1, c2, f0, f1, f2⟩ := RY.out.cells
            obtain ⟨k0, k1, k2, _, _, _⟩ := PY.out.cells
            simp only [og0] at c0 c1 c2 k0 k1 k2
            have FG : Hid (OB (setO Y (n + 1) ⟨⟨#[104, 116, 116, 112, 115]⟩, T, (1 + P0)⟩) (n + 1) ⟨⟨#[104, 116, 116, 112, 115]⟩, T, (1 + P0)⟩) := RY.out.set _
            have FB : Hid (Below n w (setO Y (n + 1) ⟨⟨#[104, 116, 116, 112, 115]⟩, T, (1 + P0)⟩)) := BY.out.trans (setO_below _ (by omega))
            clear hT
            go_wp2_with (at_builtin; refine Lib.wpList_append_run _ rfl _ _ _ _ rfl _ _ rfl rfl _ _ e3.out ?_)
            refine bodyPost_ret (results_cell_row (p := 2) (ty := 23) rfl _ _ (n + 1) 23 _ (0, 0) _ rfl FG.out Tryd.underlying23 rfl (by kernel_rfl)) rfl ⟨⟨⟨#[104, 116, 116, 112, 115]⟩, T, (1 + P0)⟩, rfl, HRT.out T HH.out, ?_⟩
            rw [HN.out]
            exact FB.out
end Go.Proofs.YtbifmikndpeafaaDoor
