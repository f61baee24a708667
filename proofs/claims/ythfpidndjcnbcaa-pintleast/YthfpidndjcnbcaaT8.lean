import Derived.Test.YthfpidndjcnbcaaT7
import Derived.Test.YthfpidndjcnbcaaEnc
namespace Go.Proofs.Ythfpidndjcnbcaa
open Go.RowKit

/-- bytes, as the cells of a row -/
def vals (l : List Nat) : List Value := l.map fun (n : Nat) => Value.int .u8 (n : Int)
theorem vals_snoc (l : List Nat) (n : Nat) : vals l ++ [Value.int .u8 (n : Int)] = vals (l ++ [n]) := by simp [vals]

theorem or_shift (r d : Nat) : bits .or .u8 ((r : Int) / (d : Int) % 256) 128 = ((128 + r / d % 128 : Nat) : Int) := by
  have e : ((r : Int) / (d : Int) % 256) = ((r / d % 256 : Nat) : Int) := by
    rw [Int.natCast_emod, Int.natCast_ediv]; rfl
  rw [e, or128 _ (Nat.mod_lt _ (by decide))]
  have : r / d % 256 % 128 = r / d % 128 := by omega
  rw [this]

theorem Try.info5 : (Try.prog.info? 5).map (fun i => (i.zero, i.size, i.bytes)) = some (some (.int .u8 0), 1, 1) := by kernel_rfl

theorem groups_int (z : Int) (x : Nat) (w : World) (hz : z = (x : Int)) (h : x ≤ 2147483647) :
    Calls Try.prog 22 #[.int .i64 z] w fun e w' => e = .returned (.int .i64 (gN x : Int)) ∧ w' = w := by
  subst hz; exact groups_any x w h

theorem finish {wr : World} {B m r c g cap : Nat} (hc8 : c ≤ 255) (hown : wr.ownsRow B 5 1 (.slice (some ⟨g, 0, none⟩) (m + 1 + 1) cap) (m + 1 + 1) (vals (c :: hi r (m + 1)))) :
    wr.cell? ⟨g, m + 1, none⟩ = some (.int .u8 ((128 + r / 128 ^ m % 128 : Nat) : Int)) ∧ wr.frozen? ⟨g, m + 1, none⟩ = false ∧ B ≤ g ∧
    Sem.run Try.prog (convert 30 9 (.slice (some ⟨g, 0, none⟩) (m + 1 + 1) cap)) (wr.setCell ⟨g, m + 1, none⟩ (.int .u8 ((r / 128 ^ m % 128 : Nat) : Int))) =
      .ok (.string ⟨((c :: (hi r m ++ [r / 128 ^ m % 128])).map B8).toArray⟩) (wr.setCell ⟨g, m + 1, none⟩ (.int .u8 ((r / 128 ^ m % 128 : Nat) : Int))) := by
  have hl : (hi r m).length = m := hi_length r m
  have e1 : vals (c :: hi r (m + 1)) = vals (c :: hi r m) ++ [.int .u8 ((128 + r / 128 ^ m % 128 : Nat) : Int)] := by rw [vals_snoc]; rfl
  have el : (vals (c :: hi r m)).length = m + 1 := by simp [vals, hl]
  refine ⟨?_, hown.frozenAt _, (hown.lt g rfl).1, ?_⟩
  · rw [hown.cellAt (m + 1) (by omega), e1, List.getElem?_append_right (by omega), el]
    simp
  · have hst := (hown.stored (m + 1) (.int .u8 ((r / 128 ^ m % 128 : Nat) : Int))).1
    have e2 : (vals (c :: hi r (m + 1))).set (m + 1) (.int .u8 ((r / 128 ^ m % 128 : Nat) : Int)) = vals (c :: (hi r m ++ [r / 128 ^ m % 128])) := by
      rw [e1, List.set_append_right _ _ (by omega), el]
      simp [vals]
    rw [e2] at hst
    have hL : ((c :: (hi r m ++ [r / 128 ^ m % 128])).map B8).length = m + 1 + 1 := by simp [hl]
    have h := run_convert_bytes_back (P := Try.prog) (wr.setCell ⟨g, m + 1, none⟩ (.int .u8 ((r / 128 ^ m % 128 : Nat) : Int))) 30 9 5 ⟨g, 0, none⟩ cap ((c :: (hi r m ++ [r / 128 ^ m % 128])).map B8) Try.underlying30 Try.underlying5 Try.underlying9
      (by
        intro j hj
        have ea : (⟨g, 0, none⟩ : Addr).add j = ⟨g, j, none⟩ := by unfold Addr.add; split <;> simp_all
        rw [ea, hst.cellAt j (by omega)]
        have hj2 : j < (c :: (hi r m ++ [r / 128 ^ m % 128])).length := by simpa using hj
        have hsm : (c :: (hi r m ++ [r / 128 ^ m % 128]))[j] < 256 := by
          have : ∀ x ∈ c :: (hi r m ++ [r / 128 ^ m % 128]), x < 256 := by
            intro x hx
            simp only [List.mem_cons, List.mem_append, List.not_mem_nil, or_false] at hx
            rcases hx with rfl | hx | rfl
            · omega
            · exact hi_lt r m x hx
            · omega
          exact this _ (List.getElem_mem hj2)
        rw [List.getElem_map, B8_toNat _ hsm]
        simp only [vals, List.getElem?_map, List.getElem?_eq_getElem hj2, Option.map_some])
    rw [hL] at h
    exact h

theorem rel_more {w wr w1 : World} {o o' : Value} {n : Nat} {xs ys : List Value} {u : Value} {ob : Obj} (HV : Hid (xs ++ [u] = ys)) (hb : Below w.heap.size w wr)
    (hown : wr.ownsRow w.heap.size 5 1 o n xs) (h1 : w1.ownsRow w.heap.size 5 1 o' (n + 1) (xs ++ [u])) (hg : (wr.alloc ob).grownBy w1 o.ownBlock) :
    w1.ownsRow w.heap.size 5 1 o' (n + 1) ys ∧ Below w.heap.size w w1 := by
  have hs := hb.size
  refine ⟨HV.out ▸ h1, (hb.alloc hs ob).grown hg (by simp; omega) ?_⟩
  intro k hk
  exact (hown.lt k hk).1

set_option maxRecDepth 100000 in
set_option maxHeartbeats 1600000 in
theorem put_long (p f v r c : Nat) (w : World) (hp1 : 1 ≤ p) (hp8 : p ≤ 8) (hu : upB f p = true) (_hf : f ≤ 255) (hc : f + fl p = c) (hc8 : c ≤ 255) (hv : fl p + r = v) (hv31 : v ≤ 2147483647) :
    Calls Try.prog 13 #[.int .i64 (p : Int), .int .i64 (f : Int), .int .i64 (v : Int)] w fun e w' => e = .returned (.tuple #[.string ⟨(B8 c :: enc 5 r).toArray⟩, .int .i64 0]) ∧ Below w.heap.size w w' := by
  have hd : decide (1 ≤ (p : Int) ∧ (p : Int) ≤ 8) = true := by simp; omega
  have ht := fl_le hp8
  have hsub : (v : Int) - (fl p : Int) = (r : Int) := by omega
  have hadd : (f : Int) + (fl p : Int) = (c : Int) := by omega
  have hr : r ≤ 2147483647 := by omega
  have hn := gN_range r
  have hle : fl p ≤ v := by omega
  have hfin : Hid ((c :: (hi r (gN r - 1) ++ [r / 128 ^ (gN r - 1) % 128])).map B8 = B8 c :: enc 5 r) := by
    show _ = _
    rw [List.map_cons, enc_eq r hr]
  clear hv hc
  obtain ⟨i0, hi0, hz0, hz1, hz2⟩ := info_parts Try.info5
  go_enter Try.func13, Try.ntmps13
  go_wp2_with (first | (go_at_call 17; refine (isPrefix_any _ _).mono ?_; rintro e w ⟨rfl, rfl⟩) | (go_at_call 21; refine (isUpper_any _ _ _ hp1 hp8).mono ?_; rintro e w ⟨rfl, rfl⟩) | (go_at_call 18; refine (pfull_any _ _ hp1 hp8).mono ?_; rintro e w ⟨rfl, rfl⟩) | (go_at_call 22; refine (groups_int _ r _ (by first | rfl | omega) hr).mono ?_; rintro e w ⟨rfl, rfl⟩))
  go_loopw [11, 51] (fun o i wr => ∃ k : Nat, k ≤ gN r ∧ i = .int .i64 k ∧ wr.ownsRow w.heap.size 5 1 o (k + 1) (vals (c :: hi r k)) ∧ Below w.heap.size w wr) (fun _ i _ => gN r - (intOf i).toNat)
  case atStart => exact ⟨0, by omega, rfl, World.ownsRow_lit w #[.int .u8 (c : Int)] 1 (Nat.le_refl _) (by decide) rfl, (Below.refl _ _).alloc (Nat.le_refl _) _⟩
  case round =>
    obtain ⟨k, hk, rfl, hown, hbel⟩ := hrel
    clear hsub hadd
    by_cases hlt : k < gN r
    · obtain ⟨X, hX, ho⟩ : ∃ X : Nat, X = 128 + r / 128 ^ k % 128 ∧ bits .or .u8 ((r : Int) / ((128 ^ k : Nat) : Int) % 256) 128 = (X : Int) := ⟨_, rfl, or_shift r _⟩
      have HX : Hid (X = 128 + r / 128 ^ k % 128) := hX
      clear hX
      have hX8 : X ≤ 255 := by have := HX.out; omega
      have HV : Hid (vals (c :: hi r k) ++ [.int .u8 (X : Int)] = vals (c :: hi r (k + 1))) := by
        show _ = _
        rw [vals_snoc, HX.out]; rfl
      obtain rfl | rfl | rfl | rfl | rfl : k = 0 ∨ k = 1 ∨ k = 2 ∨ k = 3 ∨ k = 4 := by omega
      · simp only [Nat.pow_zero, Int.natCast_one, Int.ediv_one] at ho
        clear HX
        go_wp2_with (first
          | (at_builtin; refine wpList_append_own _ rfl (.tmp 54) (.tmp 61) 30 rfl w.heap.size 5 i0 (.int .u8 0) 1 1 Try.underlying30 hi0 hz0 hz1 hz2 rfl (by decide) _ _ _ rfl (hown.alloc _) ⟨wr.heap.size, 0, none⟩ 1 1 [.int .u8 (X : Int)] rfl rfl ?c1 ?c2 ?c3 ?c4 ?c5 ?_))
        case c1 =>
          intro j u hj
          match j, hj with
          | 0, hj => simp at hj; subst hj; simp [Addr.add]
        case c2 => intro u hu; simp at hu; subst hu; rfl
        case c3 => unfold maxLen; omega
        case c4 => omega
        case c5 => have := hbel.size; simp; omega
        intro v' w1 hown' hgrow _
        have R := rel_more HV hbel hown hown' hgrow
        clear hown' hgrow hown
        go_wp2
        go_roundw
        case rel => exact ⟨0 + 1, by omega, by simp, R.1, R.2⟩
        case measure => simp [intOf]; omega
      · replace ho : bits .or .u8 ((r : Int) / 128 % 256) 128 = (X : Int) := ho
        clear HX
        go_wp2_with (first
          | (at_builtin; refine wpList_append_own _ rfl (.tmp 54) (.tmp 61) 30 rfl w.heap.size 5 i0 (.int .u8 0) 1 1 Try.underlying30 hi0 hz0 hz1 hz2 rfl (by decide) _ _ _ rfl (hown.alloc _) ⟨wr.heap.size, 0, none⟩ 1 1 [.int .u8 (X : Int)] rfl rfl ?c1 ?c2 ?c3 ?c4 ?c5 ?_))
        case c1 =>
          intro j u hj
          match j, hj with
          | 0, hj => simp at hj; subst hj; simp [Addr.add]
        case c2 => intro u hu; simp at hu; subst hu; rfl
        case c3 => unfold maxLen; omega
        case c4 => omega
        case c5 => have := hbel.size; simp; omega
        intro v' w1 hown' hgrow _
        have R := rel_more HV hbel hown hown' hgrow
        clear hown' hgrow hown
        go_wp2
        go_roundw
        case rel => exact ⟨1 + 1, by omega, by simp, R.1, R.2⟩
        case measure => simp [intOf]; omega
      · replace ho : bits .or .u8 ((r : Int) / 16384 % 256) 128 = (X : Int) := ho
        clear HX
        go_wp2_with (first
          | (at_builtin; refine wpList_append_own _ rfl (.tmp 54) (.tmp 61) 30 rfl w.heap.size 5 i0 (.int .u8 0) 1 1 Try.underlying30 hi0 hz0 hz1 hz2 rfl (by decide) _ _ _ rfl (hown.alloc _) ⟨wr.heap.size, 0, none⟩ 1 1 [.int .u8 (X : Int)] rfl rfl ?c1 ?c2 ?c3 ?c4 ?c5 ?_))
        case c1 =>
          intro j u hj
          match j, hj with
          | 0, hj => simp at hj; subst hj; simp [Addr.add]
        case c2 => intro u hu; simp at hu; subst hu; rfl
        case c3 => unfold maxLen; omega
        case c4 => omega
        case c5 => have := hbel.size; simp; omega
        intro v' w1 hown' hgrow _
        have R := rel_more HV hbel hown hown' hgrow
        clear hown' hgrow hown
        go_wp2
        go_roundw
        case rel => exact ⟨2 + 1, by omega, by simp, R.1, R.2⟩
        case measure => simp [intOf]; omega
      · replace ho : bits .or .u8 ((r : Int) / 2097152 % 256) 128 = (X : Int) := ho
        clear HX
        go_wp2_with (first
          | (at_builtin; refine wpList_append_own _ rfl (.tmp 54) (.tmp 61) 30 rfl w.heap.size 5 i0 (.int .u8 0) 1 1 Try.underlying30 hi0 hz0 hz1 hz2 rfl (by decide) _ _ _ rfl (hown.alloc _) ⟨wr.heap.size, 0, none⟩ 1 1 [.int .u8 (X : Int)] rfl rfl ?c1 ?c2 ?c3 ?c4 ?c5 ?_))
        case c1 =>
          intro j u hj
          match j, hj with
          | 0, hj => simp at hj; subst hj; simp [Addr.add]
        case c2 => intro u hu; simp at hu; subst hu; rfl
        case c3 => unfold maxLen; omega
        case c4 => omega
        case c5 => have := hbel.size; simp; omega
        intro v' w1 hown' hgrow _
        have R := rel_more HV hbel hown hown' hgrow
        clear hown' hgrow hown
        go_wp2
        go_roundw
        case rel => exact ⟨3 + 1, by omega, by simp, R.1, R.2⟩
        case measure => simp [intOf]; omega
      · replace ho : bits .or .u8 ((r : Int) / 268435456 % 256) 128 = (X : Int) := ho
        rw [show (r : Int) / 268435456 % 256 = (r : Int) / 268435456 by omega] at ho
        clear HX
        go_wp2_with (first
          | (at_builtin; refine wpList_append_own _ rfl (.tmp 54) (.tmp 61) 30 rfl w.heap.size 5 i0 (.int .u8 0) 1 1 Try.underlying30 hi0 hz0 hz1 hz2 rfl (by decide) _ _ _ rfl (hown.alloc _) ⟨wr.heap.size, 0, none⟩ 1 1 [.int .u8 (X : Int)] rfl rfl ?c1 ?c2 ?c3 ?c4 ?c5 ?_))
        case c1 =>
          intro j u hj
          match j, hj with
          | 0, hj => simp at hj; subst hj; simp [Addr.add]
        case c2 => intro u hu; simp at hu; subst hu; rfl
        case c3 => unfold maxLen; omega
        case c4 => omega
        case c5 => have := hbel.size; simp; omega
        intro v' w1 hown' hgrow _
        have R := rel_more HV hbel hown hown' hgrow
        clear hown' hgrow hown
        go_wp2
        go_roundw
        case rel => exact ⟨4 + 1, by omega, by simp, R.1, R.2⟩
        case measure => simp [intOf]; omega
    · obtain rfl : k = gN r := by omega
      obtain ⟨g, cap, rfl⟩ : ∃ g cap, u11 = .slice (some ⟨g, 0, none⟩) (gN r + 1) cap := by
        rcases hown.2 with ⟨_, h0⟩ | ⟨g, cap, _, hv, _⟩
        · omega
        · exact ⟨g, cap, hv⟩
      have F : ∃ Y Z : Nat, Y ≤ 255 ∧ (Y : Int) - 128 = (Z : Int) ∧ wr.cell? ⟨g, gN r, none⟩ = some (.int .u8 (Y : Int)) ∧ wr.frozen? ⟨g, gN r, none⟩ = false ∧ w.heap.size ≤ g ∧
          Sem.run Try.prog (convert 30 9 (.slice (some ⟨g, 0, none⟩) (gN r + 1) cap)) (wr.setCell ⟨g, gN r, none⟩ (.int .u8 (Z : Int))) = .ok (.string ⟨(B8 c :: enc 5 r).toArray⟩) (wr.setCell ⟨g, gN r, none⟩ (.int .u8 (Z : Int))) := by
        rw [← hfin.out]
        generalize gN r = n at *
        obtain ⟨m, rfl⟩ : ∃ m, n = m + 1 := ⟨n - 1, by omega⟩
        obtain ⟨q1, q2, q3, q4⟩ := finish hc8 hown
        exact ⟨_, _, by omega, by omega, q1, q2, q3, q4⟩
      obtain ⟨Y, Z, hY, hYZ, q1, q2, q3, q4⟩ := F
      clear hfin hown hk
      generalize gN r = n at *
      go_wp2
      go_ret2
      exact ⟨rfl, hbel.setCell q3 _⟩

/-- what Put answers -/
def putL (p : Nat) (f v : Int) : List UInt8 × Nat :=
  if upB f p = false ∨ v < 0 then ([], 1)
  else if 2147483647 < v then ([], 20)
  else if v.toNat < fl p then ([B8 (f.toNat + v.toNat)], 0)
  else (B8 (f.toNat + fl p) :: enc 5 (v.toNat - fl p), 0)
def putI (a f v : Int) : List UInt8 × Nat := if 1 ≤ a ∧ a ≤ 8 then putL a.toNat f v else ([], 1)
def strOf (l : List UInt8) : ByteArray := ⟨l.toArray⟩

theorem up_fits {f p : Nat} (hp8 : p ≤ 8) (hu : upB f p = true) : f ≤ 255 ∧ f + fl p ≤ 255 := by
  unfold upB at hu
  simp only [decide_eq_true_eq, Int.toNat_natCast] at hu
  obtain ⟨_, h1, h2⟩ := hu
  have h3 : f ≤ 255 := by omega
  refine ⟨h3, ?_⟩
  unfold lo at h2
  unfold fl
  have hpos := Nat.two_pow_pos p
  obtain ⟨d, hd⟩ := Nat.pow_dvd_pow 2 hp8
  have h4 : f = 2 ^ p * (f / 2 ^ p) := by have := Nat.div_add_mod f (2 ^ p); omega
  have h5 : f / 2 ^ p < d := by
    apply Nat.div_lt_of_lt_mul
    omega
  have h6 : 2 ^ p * (f / 2 ^ p + 1) ≤ 2 ^ p * d := Nat.mul_le_mul_left _ h5
  rw [Nat.mul_add, ← h4] at h6
  omega

theorem put_any (a f v : Int) (w : World) :
    Calls Try.prog 13 #[.int .i64 a, .int .i64 f, .int .i64 v] w fun e w' => e = .returned (.tuple #[.string (strOf (putI a f v).1), .int .i64 ((putI a f v).2 : Nat)]) ∧ Below w.heap.size w w' := by
  by_cases ha : 1 ≤ a ∧ a ≤ 8
  · obtain ⟨p, rfl⟩ := Int.eq_ofNat_of_zero_le (show 0 ≤ a by omega)
    have hp1 : 1 ≤ p := by omega
    have hp8 : p ≤ 8 := by omega
    have e1 : putI (p : Int) f v = putL p f v := by simp [putI, ha]
    rw [e1]
    by_cases hb : upB f p = false ∨ v < 0
    · have e2 : putL p f v = ([], 1) := by simp only [putL, if_pos hb]
      rw [e2]
      refine (put_bad _ f v w (.inr ⟨by omega, by omega, by simpa using hb⟩)).mono ?_
      rintro e w' ⟨rfl, rfl⟩
      exact ⟨rfl, Below.refl _ _⟩
    · have hu : upB f p = true := by
        cases h : upB f p
        · exact absurd (.inl h) hb
        · rfl
      have hv0 : 0 ≤ v := by
        by_cases h : v < 0
        · exact absurd (.inr h) hb
        · omega
      by_cases hbig : 2147483647 < v
      · have e2 : putL p f v = ([], 20) := by simp only [putL, if_neg hb, if_pos hbig]
        rw [e2]
        refine (put_big p f v w hp1 hp8 hu hbig).mono ?_
        rintro e w' ⟨rfl, rfl⟩
        exact ⟨rfl, Below.refl _ _⟩
      · have hf0 : 0 ≤ f := by unfold upB at hu; simp at hu; omega
        obtain ⟨f, rfl⟩ := Int.eq_ofNat_of_zero_le hf0
        obtain ⟨v, rfl⟩ := Int.eq_ofNat_of_zero_le hv0
        obtain ⟨hf, hff⟩ := up_fits hp8 hu
        by_cases hlt : v < fl p
        · have e2 : putL p (f : Int) (v : Int) = ([B8 (f + v)], 0) := by simp only [putL, if_neg hb, if_neg hbig, Int.toNat_natCast, if_pos hlt]
          rw [e2]
          exact put_small p f v w hp1 hp8 hu hf (by omega) hlt
        · have e2 : putL p (f : Int) (v : Int) = (B8 (f + fl p) :: enc 5 (v - fl p), 0) := by simp only [putL, if_neg hb, if_neg hbig, Int.toNat_natCast, if_neg hlt]
          rw [e2]
          exact put_long p f v (v - fl p) (f + fl p) w hp1 hp8 hu hf rfl hff (by omega) (by omega)
  · have e1 : putI a f v = ([], 1) := by simp [putI, ha]
    rw [e1]
    refine (put_bad _ f v w (.inl ha)).mono ?_
    rintro e w' ⟨rfl, rfl⟩
    exact ⟨rfl, Below.refl _ _⟩
end Go.Proofs.Ythfpidndjcnbcaa
