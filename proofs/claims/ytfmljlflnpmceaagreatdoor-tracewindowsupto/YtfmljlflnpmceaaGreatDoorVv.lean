import Derived.Test.YtfmljlflnpmceaaGreatDoorVu
/- assemble, padded. -/
namespace Go.Proofs.YtfmljlflnpmceaaGreatDoor.Fm
open Go.RowKit
set_option linter.unusedVariables false
set_option linter.unusedSimpArgs false

set_option maxRecDepth 100000 in
set_option maxHeartbeats 2000000 in
theorem asm_pad (f : Fr) (pb : Option Addr) (pl pc : Nat) (w : World) (k1 : Nat) (k2 : Int) (k3 k4 : Nat) (D : List UInt8) (hkd : kd f.ty f.fl = (k1, k2, k3, k4)) (hpd : padS f = true)
    (hput : ∀ (W : World) (o : Value), Below w.heap.size w W → Row W o [b8 f.pad] → (∀ k, o.ownBlock = some k → w.heap.size ≤ k) → Calls Tryz.prog k3 #[o, .agg (fv f (.slice pb pl pc))] W fun e w' => ∃ o', e = .returned o' ∧ Row w' o' ([b8 f.pad] ++ D) ∧ Gr W w' o o') (hlen : D.length + 400 ≤ 140737488355328)
    (D2 : List UInt8) (hD2 : D2 = [b8 f.pad] ++ D ++ List.replicate (f.pad % 256).toNat 0) :
    Calls Tryz.prog 49 #[.agg (fv f (.slice pb pl pc))] w fun e w' => e = .returned (.string ⟨(headS f D2.length ++ D2).toArray⟩) ∧ Below w.heap.size w w' := by
  obtain ⟨_, hc3, _⟩ := kd_calls hkd
  have hpad : Hid (∀ W : World, Calls Tryz.prog 66 #[.agg (fv f (.slice pb pl pc))] W fun e w' => e = .returned (.bool true) ∧ w' = W.alloc (.cells (fv f (.slice pb pl pc)) 31)) := by
    intro W
    have h := padded_any f (.slice pb pl pc) W
    rw [hpd] at h
    exact h
  have hpay : Hid (∀ W : World, Calls Tryz.prog 67 #[.agg (fv f (.slice pb pl pc))] W fun e w' => e = .returned (.agg #[.func (.func k1) #[] #[.pointer (some ⟨W.heap.size + 1 + 1, 0, none⟩)], .func (.func k3) #[] #[], .func (.func k4) #[] #[]]) ∧ w' = ((W.alloc (.cells (fv f (.slice pb pl pc)) 31)).alloc (.cells #[.func (.func k1) #[] #[.pointer (some ⟨W.heap.size + 1 + 1, 0, none⟩)], .func (.func k3) #[] #[], .func (.func k4) #[] #[]] 125)).alloc (.cells #[.int .i64 k2] 3)) := by
    intro W
    have h := payloadOf_any f (.slice pb pl pc) W
    simp only [PayOf, hkd, pv] at h
    exact h
  have hfld := fun x y z W => field63 x y z W
  obtain ⟨n, hn⟩ : ∃ n : Nat, f.pad % 256 = (n : Int) := ⟨(f.pad % 256).toNat, by omega⟩
  have hn255 : n ≤ 255 := by omega
  have hD2' : Hid (D2 = [b8 f.pad] ++ D ++ List.replicate n 0) := by
    rw [hD2, hn]
    rfl
  have hlen2 : D2.length + 100 ≤ 140737488355328 := by
    rw [hD2'.out]
    simp only [List.length_append, List.length_cons, List.length_nil, List.length_replicate]
    omega
  obtain ⟨o1, w1, hrun1, hR1, hG1⟩ := put_one (l := []) (m := []) (Row.nil ((w.alloc (.cells (fv f (.slice pb pl pc)) 31)).alloc (.cells (fv f (.slice pb pl pc)) 31))) (Gr.refl _ _) (b8 f.pad) (by simp)
  rw [show ((b8 f.pad).toNat : Int) = f.pad % 256 from u8_int _, hn] at hrun1
  simp only [size_al] at hrun1
  rw [List.nil_append, List.nil_append] at hR1
  have hbA : Below w.heap.size w ((w.alloc (.cells (fv f (.slice pb pl pc)) 31)).alloc (.cells (fv f (.slice pb pl pc)) 31)) := ((Below.refl _ w).alloc (Nat.le_refl _) _).alloc (by simp only [size_al]; omega) _
  have hbel1 : Below w.heap.size w w1 := hbA.trans (hG1.fresh.mono (by simp only [size_al]; omega))
  have hFA : FB ((w.alloc (.cells (fv f (.slice pb pl pc)) 31)).alloc (.cells (fv f (.slice pb pl pc)) 31)) w.heap.size f (.slice pb pl pc) := FB.below (w := w.alloc (.cells (fv f (.slice pb pl pc)) 31)) (heap_alloc_new w _) ((Below.refl _ _).alloc (Nat.le_refl _) _)
  have hF1 : FB w1 w.heap.size f (.slice pb pl pc) := FB.below hFA hG1.fresh
  have hlt1 : w.heap.size < w1.heap.size := hF1.lt
  have hfr1 : ∀ k, o1.ownBlock = some k → w.heap.size < k := fun k hk => by have := hG1.new k hk; simp only [size_al] at this; omega
  have HPUT : Hid (∀ W : World, Below w1.heap.size w1 W → Calls Tryz.prog k3 #[o1, .agg (fv f (.slice pb pl pc))] W fun e w' => ∃ o', e = .returned o' ∧ Hid (Row w' o' ([b8 f.pad] ++ D) ∧ (∀ k, o'.ownBlock = some k → w.heap.size < k) ∧ FB w' w.heap.size f (.slice pb pl pc) ∧ Below w.heap.size w w')) := by
    intro W hW
    have hbW := hbel1.trans (hW.mono (Nat.le_of_lt hlt1))
    refine (hput W o1 hbW (hR1.below hW) (fun k hk => Nat.le_of_lt (hfr1 k hk))).mono ?_
    rintro e w' ⟨o', rfl, h1, h2⟩
    have hFW := hF1.below hW
    exact ⟨o', rfl, h1, fun k hk => (h2.own k hk).elim (hfr1 k) fun hh => Nat.lt_of_lt_of_le hFW.lt hh, (h2.block _ hFW.lt fun e => by have := hfr1 _ e; omega).trans hFW, hbW.trans (h2.belowB hbW.size fun k hk => Nat.le_of_lt (hfr1 k hk))⟩
  have HPAY : ∃ z : Value, Hid (Calls Tryz.prog 67 #[.agg (fv f (.slice pb pl pc))] w1.drew fun e w' => e = .returned (.agg #[.func (.func k1) #[] #[z], .func (.func k3) #[] #[], .func (.func k4) #[] #[]]) ∧ Hid (Below w1.heap.size w1 w') ∧ FB w' w.heap.size f (.slice pb pl pc)) := by
    refine ⟨.pointer (some ⟨w1.drew.heap.size + 1 + 1, 0, none⟩), (hpay.out w1.drew).mono ?_⟩
    rintro e w' ⟨rfl, rfl⟩
    have hbb : Below w1.heap.size w1 (((w1.drew.alloc (.cells (fv f (.slice pb pl pc)) 31)).alloc (.cells #[.func (.func k1) #[] #[.pointer (some ⟨w1.drew.heap.size + 1 + 1, 0, none⟩)], .func (.func k3) #[] #[], .func (.func k4) #[] #[]] 125)).alloc (.cells #[.int .i64 k2] 3)) :=
      (((Below.refl _ w1).drew.alloc (by simp only [size_dr]; omega) _).alloc (by simp only [size_al, size_dr]; omega) _).alloc (by simp only [size_al, size_dr]; omega) _
    exact ⟨rfl, hbb, hF1.below hbb⟩
  obtain ⟨z, HPAY1⟩ := HPAY
  clear hpay
  obtain ⟨c0, c1, c2, c3, c4, c5, c6, c7, c8, c9, c10⟩ := hF1.cells
  replace hrun1 : Hid _ := hrun1
  clear hput hR1 hG1 hbA hbel1 hfr1 hF1 hFA hD2
  unfold fv at *
  go_enter Tryz.func49, Tryz.ntmps49
  go_upto_region 4 with (first | (go_at_call 66; refine (hpad.out _).mono ?_; rintro e w' ⟨rfl, rfl⟩) | (at_builtin; refine Lib.wpList_append_run _ rfl (.tmp 7) (.tmp 11) 49 49 rfl _ _ rfl rfl _ _ hrun1.out ?_))
  go_cut [3] from 5 (fun x wx => Row wx x ([b8 f.pad] ++ D) ∧ (∀ k, x.ownBlock = some k → w.heap.size < k) ∧ FB wx w.heap.size f (.slice pb pl pc) ∧ Below w.heap.size w wx)
  case first =>
    go_region_law (go_simp; go_wp2_with (first | (go_at_call 67; refine HPAY1.out.mono ?_; rintro e wy ⟨rfl, hy1, hy2⟩; obtain ⟨y0, y1, y2, y3, y4, y5, y6, y7, y8, y9, y10⟩ := hy2.cells) | (refine (HPUT.out _ hy1.out).mono ?_; rintro e wz ⟨o', rfl, hz1⟩)))
    all_goals
      go_wp2_with fail
      go_meet
    all_goals
      exact hz1.out
  case rest =>
    clear hrun1 HPUT HPAY1 c0 c1 c2 c3 c4 c5 c6 c7 c8 c9 c10
    obtain ⟨hR, hfr, hF, hbel⟩ := hcut
    obtain ⟨ob, oc, hxo⟩ := hR.slice
    have hone : ([b8 f.pad] ++ D).length = D.length + 1 := by simp
    rw [hone] at hxo
    subst hxo
    obtain ⟨o5, w5, hrun5, hR5, hG5⟩ := row_append_zeros (wc.alloc (.cells (fv f (.slice pb pl pc)) 31)) _ _ (hR.alloc _) (by intro e; cases e) n hn255 (by rw [hone]; omega)
    rw [← hD2'.out] at hR5
    obtain ⟨ob5, oc5, rfl⟩ := hR5.slice
    have hlt : w.heap.size < wc.heap.size := hF.lt
    have hbA : Below w.heap.size w (wc.alloc (.cells (fv f (.slice pb pl pc)) 31)) := hbel.alloc (Nat.le_of_lt hlt) _
    have hFA : FB (wc.alloc (.cells (fv f (.slice pb pl pc)) 31)) w.heap.size f (.slice pb pl pc) := hF.below ((Below.refl _ wc).alloc (Nat.le_refl _) _)
    have hmeet : Hid (Row w5 (.slice ob5 D2.length oc5) D2 ∧ (∀ k, (Value.slice ob5 D2.length oc5).ownBlock = some k → w.heap.size < k) ∧ FB w5 w.heap.size f (.slice pb pl pc) ∧ Below w.heap.size w w5) :=
      ⟨hR5, fun k hk => (hG5.own k hk).elim (hfr k) fun hh => Nat.lt_of_lt_of_le hFA.lt hh, (hG5.block _ hFA.lt fun e => by have := hfr _ e; omega).trans hFA, hbA.trans (hG5.belowB hbA.size fun k hk => Nat.le_of_lt (hfr k hk))⟩
    obtain ⟨c0, c1, c2, c3, c4, c5, c6, c7, c8, c9, c10⟩ := hF.cells
    rw [← hn] at hrun5
    replace hrun5 : Hid _ := hrun5
    clear hn
    clear hR hfr hF hbel hR5 hG5 hbA hFA hone
    unfold fv at *
    obtain ⟨hR, hfr, hF, hbel⟩ := hmeet.out
    have hF' : Hid (FB w5 w.heap.size f (.slice pb pl pc)) := hF
    obtain ⟨e0, e1, e2, e3, e4, e5, e6, e7, e8, e9, e10⟩ := hF.cells
    have hlt5 : w.heap.size < w5.heap.size := hF.lt
    clear hF
    go_wp2_with (first | (go_at_call 66; refine (hpad.out _).mono ?_; rintro e w' ⟨rfl, rfl⟩) | (at_builtin; refine Lib.wpList_append_run _ rfl (.tmp 21) (.tmp 24) 49 5 rfl _ _ rfl rfl _ _ hrun5.out ?_))
    refine (putNumber3 _ _ [] _ (Row.nil _) (by simp)).mono ?_
    rintro e w6 ⟨o2, rfl, hR2, hG2⟩
    rw [List.nil_append] at hR2
    have hb6 : Below w5.heap.size w5 w6 := hG2.fresh
    have hn2 : ∀ k, o2.ownBlock = some k → w5.heap.size ≤ k := fun k hk => hG2.new k hk
    have hF6 := hF'.out.below hb6
    have d0 := hF6.cells.1
    have d1 := hF6.cells.2.1
    obtain ⟨o3, w7, hrun3, hR3, hG3⟩ := put_two hR2 (b8 f.ty) (b8 f.fl) (by simp [be_length])
    rw [show ((b8 f.ty).toNat : Int) = f.ty % 256 from u8_int _, show ((b8 f.fl).toNat : Int) = f.fl % 256 from u8_int _] at hrun3
    replace hrun3 : Hid _ := hrun3
    have hk7 : ∀ k, k < w5.heap.size → w7.heap[k]? = w6.heap[k]? := fun k hk => hG3.block k (Nat.lt_of_lt_of_le hk hb6.size) (fun e => by have := hn2 k e; omega)
    have hF7 : FB w7 w.heap.size f (.slice pb pl pc) := (hk7 _ hlt5).trans hF6
    have d2 := hF7.cells.2.2.1
    go_wp2_with (at_builtin; refine Lib.wpList_append_run _ rfl (.tmp 29) (.tmp 36) 49 49 rfl _ _ rfl rfl _ _ hrun3.out ?_)
    rw [and31]
    refine (putNumber4 w7 o3 _ _ hR3 (by simp [be_length])).mono ?_
    rintro e w8 ⟨o4, rfl, hR4, hG4⟩
    have hn3 : ∀ k, o3.ownBlock = some k → w5.heap.size ≤ k := fun k hk => (hG3.own k hk).elim (fun e => by have := hn2 k e; omega) fun hh => Nat.le_trans hb6.size hh
    have hn4 : ∀ k, o4.ownBlock = some k → w5.heap.size ≤ k := fun k hk => (hG4.own k hk).elim (hn3 k) fun hh => Nat.le_trans (Nat.le_trans hb6.size hG3.size) hh
    have hb7 : Below w5.heap.size w5 w7 := hb6.trans (hG3.belowB hb6.size hn2)
    have hb8 : Below w5.heap.size w5 w8 := hb7.trans (hG4.belowB hb7.size hn3)
    obtain ⟨o9, w9, hrun9, hR9, hG9⟩ := row_append_row w8 o4 _ _ D2 hR4 (hR.below hb8) (by simp [be_length]; omega)
    have hb9 : Below w.heap.size w w9 := hbel.trans ((hb8.trans (hG9.belowB hb8.size hn4)).mono hbel.size)
    have hconv := conv_row hR9
    have hs : (be 3 (D2.length : Int) ++ [b8 f.ty, b8 f.fl] ++ be 4 (f.st % 2147483648) ++ D2) = headS f D2.length ++ D2 := rfl
    rw [hs] at hconv
    replace hrun9 : Hid _ := hrun9
    clear hrun3 hR9 hG9 hR4 hG4 hR3 hG3 hR2 hG2 hR hs
    go_wp2_with (at_builtin; refine Lib.wpList_append_run _ rfl (.tmp 43) (.tmp 44) 49 49 rfl _ _ rfl rfl _ _ hrun9.out ?_)
    go_ret
    exact ⟨rfl, hb9⟩
end Go.Proofs.YtfmljlflnpmceaaGreatDoor.Fm
/- assemble, of every frame. -/
namespace Go.Proofs.YtfmljlflnpmceaaGreatDoor.Fm
open Go.RowKit
set_option linter.unusedVariables false
set_option linter.unusedSimpArgs false

/-- the bytes that a kind of payload writes -/
def payB (k : Nat) (f : Fr) (ps : List (Int × Int)) : List UInt8 :=
  if k = 91 then prioB f ++ f.data.data.toList
  else if k = 94 then prioB f
  else if k = 96 then be 4 f.code
  else if k = 98 then parB ps
  else if k = 101 then be 4 (f.last % 2147483648) ++ f.data.data.toList
  else if k = 103 then f.data.data.toList
  else if k = 105 then be 4 (f.last % 2147483648) ++ (be 4 f.code ++ f.data.data.toList)
  else be 4 (f.last % 2147483648)

theorem put_any {f : Fr} {k1 : Nat} {k2 : Int} {k3 k4 : Nat} (h : kd f.ty f.fl = (k1, k2, k3, k4)) (ps : List (Int × Int)) (p : Value) (w : World) (o : Value) (l : List UInt8) (hR : Row w o l) (hp : PRow w p ps) (hne : ∀ k, p.ownBlock = some k → o.ownBlock ≠ some k) (hl : l.length + (payB k3 f ps).length + 100 ≤ 140737488355328) :
    Calls Tryz.prog k3 #[o, .agg (fv f p)] w fun e w' => ∃ o', e = .returned o' ∧ Row w' o' (l ++ payB k3 f ps) ∧ Gr w w' o o' := by
  obtain ⟨pb, pc, hps⟩ := hp.slice
  rcases kd_cases f.ty f.fl with hk | hk | hk | hk | hk | hk | hk | hk | hk | hk
  all_goals
    rw [hk] at h
    cases h
    first
      | exact puts_params f ps p w o l hR hp hne hl
      | (subst hps
         first
          | exact puts_headers f pb _ pc w o l hR hl
          | exact puts_prio f pb _ pc w o l hR hl
          | exact puts_code f pb _ pc w o l hR hl
          | exact puts_promise f pb _ pc w o l hR hl
          | exact puts_data f pb _ pc w o l hR hl
          | exact puts_goaway f pb _ pc w o l hR hl
          | exact puts_last f pb _ pc w o l hR hl)

/-- the payload, its padding too -/
def wholeB (f : Fr) (ps : List (Int × Int)) : List UInt8 :=
  if padS f then [b8 f.pad] ++ payB (kd f.ty f.fl).2.2.1 f ps ++ List.replicate (f.pad % 256).toNat 0 else payB (kd f.ty f.fl).2.2.1 f ps
/-- all its bytes -/
def asmB (f : Fr) (ps : List (Int × Int)) : ByteArray := ⟨(headS f (wholeB f ps).length ++ wholeB f ps).toArray⟩

end Go.Proofs.YtfmljlflnpmceaaGreatDoor.Fm
/- slices.Equal, of any params. -/
namespace Go.Proofs.YtfmljlflnpmceaaGreatDoor.Fm
open Go.RowKit
set_option linter.unusedVariables false
set_option linter.unusedSimpArgs false

end Go.Proofs.YtfmljlflnpmceaaGreatDoor.Fm
