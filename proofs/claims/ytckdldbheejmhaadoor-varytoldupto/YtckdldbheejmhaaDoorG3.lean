/- The document's pieces. -/
import Derived.Test.YtckdldbheejmhaaDoorG2
import Derived.Test.YtckdldbheejmhaaDoorB1
namespace Go.Proofs.YtckdldbheejmhaaDoor
open Go.RowKit
set_option linter.unusedVariables false
set_option linter.unusedSimpArgs false
theorem ext_list (s : ByteArray) (a b : Nat) : (s.extract a b).data.toList = (s.data.toList.drop a).take (b - a) := by
  rw [ByteArray.data_extract, Array.toList_extract]
theorem pc_of (s : ByteArray) (a b : Nat) (l : List UInt8) (h : s.data.toList = l) : smS ⟨(Lib.trimS (s.extract a b).data.toList [32, 9]).toArray⟩ = pcS (bt ((l.drop a).take (b - a))) := by
  unfold pcS
  rw [bt_list, ext_list, h]
theorem dw_len (p : UInt8 → Bool) : ∀ l : List UInt8, (l.dropWhile p).length ≤ l.length
  | [] => Nat.le_refl _
  | a :: r => by
    rw [List.dropWhile_cons]
    split
    · have := dw_len p r
      simp only [List.length_cons]
      omega
    · exact Nat.le_refl _
theorem trim_len (l cs : List UInt8) : (Lib.trimS l cs).length ≤ l.length := by
  unfold Lib.trimS Lib.trimLeftS Lib.trimRightS
  refine Nat.le_trans (dw_len _ _) ?_
  rw [List.length_reverse]
  refine Nat.le_trans (dw_len _ _) ?_
  rw [List.length_reverse]
  exact Nat.le_refl _
/-- how far the pieces are found -/
def PcS (l : List UInt8) (i fr : Nat) (Dl : List (List UInt8)) : Prop :=
  (i ≤ l.length ∧ fr ≤ i ∧ cutL l = Dl ++ cutL (l.drop fr) ∧ ∀ j : Nat, fr ≤ j → j < i → l[j]? ≠ some 44) ∨ (i = l.length + 1 ∧ cutL l = Dl)
theorem PcS.last {l : List UInt8} {fr : Nat} {Dl : List (List UInt8)} (h : PcS l l.length fr Dl) : PcS l (l.length + 1) (l.length + 1) (Dl ++ [(l.drop fr).take (l.length - fr)]) := by
  rcases h with ⟨_, h1, h2, h3⟩ | ⟨h, _⟩
  · refine .inr ⟨rfl, ?_⟩
    rw [h2, cut_none (l := l.drop fr) (fun k e => ?_), List.take_of_length_le (by rw [List.length_drop]; exact Nat.le_refl _)]
    rw [List.getElem?_drop] at e
    exact h3 (fr + k) (by omega) (List.getElem?_eq_some_iff.1 e).1 e
  · omega
theorem PcS.comma {l : List UInt8} {i fr : Nat} {Dl : List (List UInt8)} (h : PcS l i fr Dl) (hi : i < l.length) (hc : l[i]? = some 44) : PcS l (i + 1) (i + 1) (Dl ++ [(l.drop fr).take (i - fr)]) := by
  rcases h with ⟨_, h1, h2, h3⟩ | ⟨h, _⟩
  · refine .inl ⟨hi, Nat.le_refl _, ?_, fun j h4 h5 => absurd h5 (by omega)⟩
    rw [h2, cut_some (l := l.drop fr) (o := i - fr) (by rw [List.getElem?_drop, show fr + (i - fr) = i by omega]; exact hc) (fun k hk => by rw [List.getElem?_drop]; exact h3 _ (by omega) (by omega)), List.drop_drop, show fr + (i - fr + 1) = i + 1 by omega, List.append_assoc]
    rfl
  · omega
theorem PcS.other {l : List UInt8} {i fr : Nat} {Dl : List (List UInt8)} (h : PcS l i fr Dl) (hi : i < l.length) (hc : l[i]? ≠ some 44) : PcS l (i + 1) fr Dl := by
  rcases h with ⟨_, h1, h2, h3⟩ | ⟨h, _⟩
  · refine .inl ⟨hi, by omega, h2, fun j h4 h5 => ?_⟩
    by_cases e : j = i
    · rw [e]; exact hc
    · exact h3 j h4 (by omega)
  · omega
theorem PcS.few {l : List UInt8} {i fr : Nat} {Dl : List (List UInt8)} (h : PcS l i fr Dl) (hi : i ≤ l.length) : Dl.length + 1 ≤ (cutL l).length ∧ fr ≤ i := by
  rcases h with ⟨_, h1, h2, h3⟩ | ⟨h, _⟩
  · rw [h2, List.length_append]
    have := List.length_pos_iff.2 (cutL_ne (l.drop fr))
    omega
  · omega
set_option maxHeartbeats 4000000 in
set_option maxRecDepth 100000 in
theorem pieces_any (s : ByteArray) (w : World) (hs : s.size ≤ 140737488351232) (hn : (cutS s).length ≤ 4398046511104) : Calls Tryd.prog 25 #[.string s] w fun e w' => VsPost ((cutS s).map pcS) w e w' := by
  obtain ⟨l, hl⟩ : ∃ l, s.data.toList = l := ⟨_, rfl⟩
  have HS : Hid (s.data.toList = l ∧ s.size = l.length) := ⟨hl, by rw [Lib.size_eq, hl]⟩
  have HN : Hid ((cutL l).length ≤ 4398046511104) := by
    show _ ≤ _
    rw [cutS, List.length_map, hl] at hn
    exact hn
  rw [show (cutS s).map pcS = (cutL l).map (fun x => pcS (bt x)) by rw [cutS, hl, List.map_map]; rfl]
  clear hl hn
  go_enter Tryd.func25, Tryd.ntmps25
  go_wp2_with fail
  go_loopw [3, 4, 5, 6] (fun ov fv iv _ wr => ∃ (i fr n : Nat) (b : Option Addr) (c : Nat) (Dl : List (List UInt8)), iv = .int .i64 (i : Int) ∧ fv = .int .i64 (fr : Int) ∧ ov = .slice b n c ∧ i ≤ s.size + 1 ∧ Hid (PcS l i fr Dl ∧ n = Dl.length ∧ R ES wr (.slice b n c) (Dl.map fun x => pcS (bt x)) ∧ Below w.heap.size w wr ∧ ∀ j, (Value.slice b n c).ownBlock = some j → w.heap.size ≤ j)) (fun _ _ iv _ _ => s.size + 1 - (intOf iv).toNat)
  case atStart => exact ⟨0, 0, 0, none, 0, [], rfl, rfl, rfl, by omega, .inl ⟨Nat.zero_le _, Nat.le_refl _, rfl, fun j _ h => absurd h (by omega)⟩, rfl, R.nil ES w, Below.refl _ _, fun j hj => by simp [Value.ownBlock] at hj⟩
  case round =>
    obtain ⟨i, fr, n, b, c, Dl, rfl, rfl, rfl, hi, hS⟩ := hrel
    by_cases hle : i ≤ s.size
    · have hle' : (i : Int) ≤ (s.size : Int) := by omega
      have hfr : fr ≤ i := (hS.out.1.few (by rw [← HS.out.2]; exact hle)).2
      have hfr' : (fr : Int) ≤ (i : Int) := by omega
      have HA : Hid (∀ W (p : ByteArray), Below wr.heap.size wr W → ∃ b2 c2 w2, (Builtin.append_ #[25, 25] 25 #[.slice b n c, .slice (some ⟨W.heap.size, 0, none⟩) 1 1]).run Tryd.prog (W.alloc (.cells #[.string p] 9)) = .ok (.slice b2 (n + 1) c2) w2 ∧ R ES w2 (.slice b2 (n + 1) c2) ((Dl.map fun x => pcS (bt x)) ++ [p]) ∧ Below w.heap.size w w2 ∧ ∀ j, (Value.slice b2 (n + 1) c2).ownBlock = some j → w.heap.size ≤ j) := fun W p hb => by
        have ba := bel1 W (.cells #[.string p] 9)
        have hbw := hS.out.2.2.2.1.trans (hb.mono hS.out.2.2.2.1.size)
        obtain ⟨b2, c2, w2, e1, e2, e3⟩ := app okS (W.alloc (.cells #[.string p] 9)) _ _ (R.below (R.below hS.out.2.2.1 hb) ba) (.slice (some ⟨W.heap.size, 0, none⟩) 1 1) [p] (in_one (x := p) _ _ #[.string p] 9 (0, 0) (by rw [heap_al, if_pos rfl]) rfl) (by
          have h1 := (hS.out.1.few (by rw [← HS.out.2]; exact hle)).1
          have h2 := HN.out
          simp only [ES, List.length_map, List.length_singleton]
          omega)
        have el : (Dl.map fun x => pcS (bt x)).length + [p].length = n + 1 := by rw [List.length_map, hS.out.2.1]; rfl
        rw [el] at e1 e2 e3
        refine ⟨b2, c2, w2, e1, e2, hbw.trans (Below.trans (ba.mono hbw.size) (e3.belowB (Nat.le_trans hbw.size ba.size) hS.out.2.2.2.2)), fun j hj => ?_⟩
        rcases e3.own j hj with e | e
        · exact hS.out.2.2.2.2 j e
        · exact Nat.le_trans (Nat.le_trans hbw.size ba.size) e
      have HX : Hid ((s.extract fr i).size ≤ 140737488351232) := by
        show _ ≤ _
        rw [Lib.size_eq, ext_list, List.length_take, List.length_drop, ← Lib.size_eq]
        omega
      have HT : Hid ((⟨(Lib.trimS (s.extract fr i).data.toList [32, 9]).toArray⟩ : ByteArray).size ≤ 140737488351232) := by
        show _ ≤ _
        have h1 := trim_len (s.extract fr i).data.toList [32, 9]
        have h2 := HX.out
        rw [Lib.size_eq] at h2
        rw [Lib.size_eq]
        simp only [List.toList_toArray]
        omega
      obtain ⟨T, hT⟩ : ∃ T, (⟨(Lib.trimS (s.extract fr i).data.toList [32, 9]).toArray⟩ : ByteArray) = T := ⟨_, rfl⟩
      have HTT : Hid ((⟨(Lib.trimS (s.extract fr i).data.toList [32, 9]).toArray⟩ : ByteArray) = T) := hT
      obtain ⟨p, hp⟩ : ∃ p, smS T = p := ⟨_, rfl⟩
      have HP : Hid (smS T = p) := hp
      have HPC : Hid (pcS (bt ((l.drop fr).take (i - fr))) = p) := by show _ = _; rw [← hp, ← hT, pc_of s fr i l HS.out.1]
      rw [hT] at HT
      clear hp hT
      by_cases hel : i = s.size
      · have HNX : Hid (PcS l (i + 1) (i + 1) (Dl ++ [(l.drop fr).take (i - fr)]) ∧ n + 1 = (Dl ++ [(l.drop fr).take (i - fr)]).length) := by
          have h := hS.out.1
          rw [hel, HS.out.2] at h
          refine ⟨?_, by rw [List.length_append, hS.out.2.1]; rfl⟩
          rw [hel, HS.out.2]
          exact h.last
        have he1 : ((i : Int) == (s.size : Int)) = true := by simp; omega
        have he2 : (i : Int) = (s.size : Int) := by omega
        clear hS
        subst hel
        go_wp2_with fail
        go_at_call 35
        refine (trimmed_any (s.extract fr (s.size)) _ (by have := HX.out; omega)).mono ?_
        rintro e w' ⟨rfl, hww⟩
        rw [HTT.out]
        replace hww := hww.symm
        subst hww
        go_wp2_with fail
        go_at_call 34
        refine (rsmall_any T _ HT.out).mono ?_
        rintro e w1 ⟨rfl, bX⟩
        rw [HP.out]
        obtain ⟨b2, c2, w2, a1, a2⟩ := HA.out w1 p bX
        replace a1 : Hid _ := a1
        replace a2 : Hid _ := a2
        clear bX HA
        go_wp2_with (at_builtin; refine Lib.wpList_append_run _ rfl _ _ _ _ rfl _ _ rfl rfl _ _ a1.out ?_)
        go_roundw
        case rel => exact ⟨s.size + 1, s.size + 1, n + 1, b2, c2, Dl ++ [(l.drop fr).take ((s.size) - fr)], by simp, by simp, by first | rfl | simp, by omega, HNX.out.1, HNX.out.2, by rw [List.map_append, List.map_cons, List.map_nil, HPC.out]; exact a2.out.1, a2.out.2⟩
        case measure => simp [intOf]
      · have hlt : i < s.size := by omega
        have hlt' : (i : Int) < (s.size : Int) := by omega
        have he1 : ((i : Int) == (s.size : Int)) = false := by simp; omega
        have he2 : ¬ (i : Int) = (s.size : Int) := by omega
        obtain ⟨x, hx⟩ : ∃ x : UInt8, s[i] = x := ⟨_, rfl⟩
        have HXL : Hid (l[i]? = some x) := by
          show _ = _
          rw [← HS.out.1, List.getElem?_eq_getElem (by rw [← Lib.size_eq]; exact hlt), ← hx]
          simp <;> rfl
        by_cases hc : x.toNat = 44
        · have HNX : Hid (PcS l (i + 1) (i + 1) (Dl ++ [(l.drop fr).take (i - fr)]) ∧ n + 1 = (Dl ++ [(l.drop fr).take (i - fr)]).length) := by
            refine ⟨hS.out.1.comma (by rw [← HS.out.2]; exact hlt) ?_, by rw [List.length_append, hS.out.2.1]; rfl⟩
            rw [HXL.out, show x = 44 from UInt8.toNat_inj.1 hc]
          have hc1 : ((x.toNat : Int) == 44) = true := by simp; omega
          have hc2 : (x.toNat : Int) = 44 := by omega
          clear hS hc
          go_wp2_with fail
          go_at_call 35
          refine (trimmed_any (s.extract fr (i)) _ (by have := HX.out; omega)).mono ?_
          rintro e w' ⟨rfl, hww⟩
          rw [HTT.out]
          replace hww := hww.symm
          subst hww
          go_wp2_with fail
          go_at_call 34
          refine (rsmall_any T _ HT.out).mono ?_
          rintro e w1 ⟨rfl, bX⟩
          rw [HP.out]
          obtain ⟨b2, c2, w2, a1, a2⟩ := HA.out w1 p bX
          replace a1 : Hid _ := a1
          replace a2 : Hid _ := a2
          clear bX HA
          go_wp2_with (at_builtin; refine Lib.wpList_append_run _ rfl _ _ _ _ rfl _ _ rfl rfl _ _ a1.out ?_)
          go_roundw
          case rel => exact ⟨i + 1, i + 1, n + 1, b2, c2, Dl ++ [(l.drop fr).take ((i) - fr)], by simp, by simp, by first | rfl | simp, by omega, HNX.out.1, HNX.out.2, by rw [List.map_append, List.map_cons, List.map_nil, HPC.out]; exact a2.out.1, a2.out.2⟩
          case measure => simp [intOf]; omega
        · have HNX : Hid (PcS l (i + 1) fr Dl) := hS.out.1.other (by rw [← HS.out.2]; exact hlt) (by rw [HXL.out]; intro e; injection e with e; exact hc (by rw [e]; rfl))
          have hc1 : ((x.toNat : Int) == 44) = false := by simp; omega
          have hc2 : ¬ (x.toNat : Int) = 44 := by omega
          have HST := hS
          clear hS hc HA HX HT HP HPC
          go_wp2_with fail
          go_roundw
          case rel => exact ⟨i + 1, fr, n, b, c, Dl, by simp, by first | rfl | simp, by first | rfl | simp, by omega, HNX.out, HST.out.2⟩
          case measure => simp [intOf]; omega
    · have hle' : ¬ (i : Int) ≤ (s.size : Int) := by omega
      have HE : Hid (VsPost ((cutL l).map fun x => pcS (bt x)) w (.returned (.slice b n c)) wr) := by
        obtain ⟨h1, h2, h3, h4, h5⟩ := hS.out
        rcases h1 with ⟨h, _⟩ | ⟨_, h⟩
        · have := HS.out.2; omega
        · rw [h]; exact ⟨(b, n, c), rfl, h4, h3, h5⟩
      clear hS
      go_wp2_with fail
      go_ret
      exact HE.out
end Go.Proofs.YtckdldbheejmhaaDoor
