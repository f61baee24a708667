import Derived.Test.YtfmljlflnpmceaaGreatDoorZu
/- The beginning. -/
namespace Go.Proofs.YtfmljlflnpmceaaGreatDoor
open Go.RowKit
set_option linter.unusedVariables false
set_option linter.unusedSimpArgs false
theorem rsG_nil : rsG [] = fun _ => none := by funext id; simp [rsG]
theorem qG_none : qG (fun _ => none) = fun _ => none := by funext id; simp [qG]
set_option maxRecDepth 100000 in
set_option maxHeartbeats 8000000 in
theorem newWay_any (c : Bool) (w : World) (h : Std w) : Calls Tryz.prog 26 #[.bool c] w fun e w' => ∃ a : WA, e = .returned (.pointer (some ⟨a.g, 0, none⟩)) ∧ WI w' a (Wy.new c) 0 ∧ (∀ j, WB a j → w.heap.size ≤ j) ∧ Below w.heap.size w w' := by
  have HBn : Hid (∀ V, Std V → Calls Tryz.prog 34 #[.bool c] V fun e w' => ∃ b, e = .returned (.pointer (some ⟨b, 0, none⟩)) ∧ Bk w' b c St.dfl (.slice none 0 0) [] ∧ V.heap.size ≤ b ∧ Below V.heap.size V w') := fun V hV => bnew_any c V hV
  have HWn : Hid (∀ V, Calls Tryz.prog 35 #[.int .i64 65535] V fun e w' => ∃ b, e = .returned (.pointer (some ⟨b, 0, none⟩)) ∧ Wd w' b 65535 ∧ V.heap.size ≤ b ∧ Below V.heap.size V w') := fun V => by
    have := wnew_any 65535 V
    have e : cl 65535 = 65535 := by decide
    rw [e] at this
    exact this
  obtain ⟨V0, hV0⟩ : ∃ V, w.alloc (.map #[] 0) = V := ⟨_, rfl⟩
  obtain ⟨m1, hm1⟩ : ∃ n, w.heap.size = n := ⟨_, rfl⟩
  have b0 : Below w.heap.size w V0 := by rw [← hV0]; exact bel1 _ _
  have hM := MV.new w
  rw [hV0, hm1] at hM
  have H0 : Hid (MV V0 m1 0 (fun _ => none) ∧ Below w.heap.size w V0 ∧ Std V0 ∧ w.heap.size = m1) := ⟨hM, b0, h.below b0, hm1⟩
  clear b0 hM h
  have hmm := @run_makeMap Tryz.prog
  go_enter Tryz.func26, Tryz.ntmps26
  go_wp2_with fail
  try rw [hV0]
  try rw [hm1]
  go_at_call 34
  refine (HBn.out _ H0.out.2.2.1).mono ?_
  rintro e V1 ⟨b, rfl, h1, h2, h3⟩
  have H1 : Hid (MV V1 m1 0 (fun _ => none) ∧ Below w.heap.size w V1 ∧ Bk V1 b c St.dfl (.slice none 0 0) [] ∧ w.heap.size ≤ b) := ⟨H0.out.1.below h3, H0.out.2.1.trans (h3.mono H0.out.2.1.size), h1, Nat.le_trans H0.out.2.1.size h2⟩
  clear h1 h2 h3 HBn hV0 hm1
  go_wp2_with fail
  go_at_call 35
  refine (HWn.out _).mono ?_
  rintro e V2 ⟨r, rfl, h1, h2, h3⟩
  have H2 : Hid (MV V2 m1 0 (fun _ => none) ∧ Below w.heap.size w V2 ∧ Bk V2 b c St.dfl (.slice none 0 0) [] ∧ w.heap.size ≤ b ∧ Wd V2 r 65535 ∧ w.heap.size ≤ r) := ⟨H1.out.1.below h3, H1.out.2.1.trans (h3.mono H1.out.2.1.size), H1.out.2.2.1.below h3, H1.out.2.2.2, h1, Nat.le_trans H1.out.2.1.size h2⟩
  clear h1 h2 h3 HWn H1
  go_wp2_with fail
  go_ret
  obtain ⟨z1, z2, z3, z4, z5, z6⟩ := H2.out
  have hsz := z2.size
  have y1 : Below V2.heap.size V2 (V2.alloc (.map #[] 0)) := bel1 _ _
  have y2 : ∀ o : Obj, Below (V2.alloc (.map #[] 0)).heap.size (V2.alloc (.map #[] 0)) ((V2.alloc (.map #[] 0)).alloc o) := fun o => bel1 _ _
  have y3 : ∀ o : Obj, Below V2.heap.size V2 ((V2.alloc (.map #[] 0)).alloc o) := fun o => y1.trans ((y2 o).mono (by simp))
  refine ⟨⟨V2.heap.size + 1, m1, V2.heap.size, b, .slice none 0 0, r, .slice none 0 0, fun _ => none⟩, rfl, ?_, ?_, z2.trans ((y3 _).mono hsz)⟩
  · exact {
      blk := by
        first
          | exact fresh2 _ _ _
          | (rw [heap_al, if_pos (by simp)]; rfl)
      pg := .inl ⟨rfl, rfl⟩
      rs := by
        show MV _ m1 0 (rsG [])
        rw [rsG_nil]
        exact z1.below (y3 _)
      bk := z3.below (y3 _)
      rm := z5.below (y3 _)
      rmB := by show InB 65535; unfold InB; decide
      rw := by
        show MV _ V2.heap.size 0 (qG fun _ => none)
        rw [qG_none]
        exact (MV.new V2).below (y2 _)
      rq := fun id => rfl
      rd := fun id k hq => by cases hq
      inj := fun i j k hq => by cases hq
      nr := fun i k hq => by cases hq
      srt := List.Pairwise.nil
      ne := by
        have := z1.lt
        show m1 ≠ V2.heap.size
        omega }
  · have := H0.out.2.2.2
    rintro j (hj | hj | hj | hj | hj | hj | hj | ⟨id, hj⟩)
    · have hj : j = V2.heap.size + 1 := hj; omega
    · have hj : j = m1 := hj; omega
    · have hj : j = V2.heap.size := hj; omega
    · have hj : j = b := hj; omega
    · cases hj
    · have hj : j = r := hj; omega
    · cases hj
    · cases hj
set_option maxRecDepth 100000 in
set_option maxHeartbeats 8000000 in
theorem begin_any (c : Bool) (w : World) (h : Std w) : Calls Tryz.prog 22 #[.bool c] w fun e w' => ∃ A : LA, e = .returned (.pointer (some ⟨A.g, 0, none⟩)) ∧ LJ w w' A (Lk.new c) 0 := by
  have HT : Hid (∀ V, Calls Tryz.prog 25 #[.bool c] V fun e w' => e = .returned (.pointer (some ⟨V.heap.size + 1, 0, none⟩)) ∧ TI w' (V.heap.size + 1) V.heap.size (Tb.new c) ∧ Below V.heap.size V w' ∧ w'.heap.size = V.heap.size + 2) := fun V => new_any c V
  have HN : Hid (∀ (d : Bool) (V : World), Std V → Calls Tryz.prog 26 #[.bool d] V fun e w' => ∃ a : WA, e = .returned (.pointer (some ⟨a.g, 0, none⟩)) ∧ WI w' a (Wy.new d) 0 ∧ (∀ j, WB a j → V.heap.size ≤ j) ∧ Below V.heap.size V w') := fun d V hV => newWay_any d V hV
  have HS : Hid (Std w) := h
  clear h
  obtain ⟨p, hp⟩ : ∃ n, w.heap.size + 1 = n := ⟨_, rfl⟩
  obtain ⟨mb, hmb⟩ : ∃ n, w.heap.size = n := ⟨_, rfl⟩
  go_enter Tryz.func22, Tryz.ntmps22
  go_wp2_with fail
  go_at_call 25
  have ht := HT.out w
  rw [hp, hmb] at ht
  refine ht.mono ?_
  rintro e V1 ⟨rfl, h1, h2, h3⟩
  have H1 : Hid (TI V1 p mb (Tb.new c) ∧ Below w.heap.size w V1 ∧ Std V1 ∧ w.heap.size = mb ∧ w.heap.size + 1 = p ∧ w.heap.size < V1.heap.size ∧ p < V1.heap.size) := ⟨h1, by rw [hmb]; exact h2, HS.out.below (by rw [hmb]; exact h2), hmb, hp, by omega, h1.lt⟩
  clear ht h1 h2 h3 HT hp hmb
  obtain ⟨nc, hnc⟩ : ∃ b, (!c) = b := ⟨_, rfl⟩
  go_wp2_with fail
  try rw [hnc]
  go_at_call 26
  refine (HN.out nc _ H1.out.2.2.1).mono ?_
  rintro e V2 ⟨a, rfl, h1, h2, h3⟩
  have H2 : Hid (TI V2 p mb (Tb.new c) ∧ Below w.heap.size w V2 ∧ Std V2 ∧ WI V2 a (Wy.new nc) 0 ∧ (∀ j, WB a j → V1.heap.size ≤ j)) := ⟨H1.out.1.below h3, H1.out.2.1.trans (h3.mono H1.out.2.1.size), H1.out.2.2.1.below h3, h1, h2⟩
  have HC : Hid ((!c) = nc ∧ V1.heap.size ≤ V2.heap.size) := ⟨hnc, h3.size⟩
  clear h1 h2 h3 hnc
  go_wp2_with fail
  go_at_call 26
  refine (HN.out c _ H2.out.2.2.1).mono ?_
  rintro e V3 ⟨d, rfl, h1, h2, h3⟩
  have H3 : Hid (TI V3 p mb (Tb.new c) ∧ Below w.heap.size w V3 ∧ WI V3 a (Wy.new nc) 0 ∧ (∀ j, WB a j → V1.heap.size ≤ j ∧ j < V2.heap.size) ∧ WI V3 d (Wy.new c) 0 ∧ (∀ j, WB d j → V2.heap.size ≤ j) ∧ V2.heap.size ≤ V3.heap.size) := ⟨H2.out.1.below h3, H2.out.2.1.trans (h3.mono H2.out.2.1.size), H2.out.2.2.2.1.below h3, fun j hj => ⟨H2.out.2.2.2.2 j hj, H2.out.2.2.2.1.lt hj⟩, h1, h2, h3.size⟩
  clear h1 h2 h3 HN
  go_wp2_with fail
  go_ret
  obtain ⟨z1, z2, z3, z4, z5, z6, z7⟩ := H3.out
  obtain ⟨_, _, _, g1, g2, g3, g4⟩ := H1.out
  have y := bel1 V3 (.cells #[.pointer (some ⟨p, 0, none⟩), .pointer (some ⟨a.g, 0, none⟩), .pointer (some ⟨d.g, 0, none⟩)] 69)
  refine ⟨⟨V3.heap.size, p, mb, fun s => if s = true then a else d⟩, rfl, ?_⟩
  have hv12 := HC.out.2
  exact {
    blk := by rw [heap_al, if_pos rfl]; rfl
    ti := z1.below y
    wi := fun s => by
      cases s
      · have e : (Lk.new c).wy false = Wy.new c := by show Wy.new (false != c) = _; cases c <;> rfl
        rw [e]
        exact z5.below y
      · have e : (Lk.new c).wy true = Wy.new nc := by
          show Wy.new (true != c) = _
          rw [← HC.out.1]
          cases c <;> rfl
        rw [e]
        exact z3.below y
    ap := fun j h1 h2 => by
      have a1 := (z4 j h1).2
      have a2 := z6 j h2
      omega
    at' := fun s j hj => by
      cases s
      · have a1 := z6 j hj
        have a2 := z5.lt hj
        refine ⟨?_, ?_, ?_⟩
        · show j ≠ V3.heap.size; omega
        · show j ≠ p; omega
        · show j ≠ mb; omega
      · have a1 := z4 j hj
        refine ⟨?_, ?_, ?_⟩
        · show j ≠ V3.heap.size; omega
        · show j ≠ p; omega
        · show j ≠ mb; omega
    lo := fun j hj => by
      rcases hj with e | e | e | ⟨s, hj⟩
      · have e : j = V3.heap.size := e; have := z2.size; omega
      · have e : j = p := e; omega
      · have e : j = mb := e; omega
      · cases s
        · have a1 := z6 j hj; omega
        · have a1 := (z4 j hj).1; omega
    bel := z2.trans (y.mono z2.size) }
end Go.Proofs.YtfmljlflnpmceaaGreatDoor
/- What stays so behind every entry. -/
namespace Go.Proofs.YtfmljlflnpmceaaGreatDoor
open Go.RowKit
set_option linter.unusedVariables false
set_option linter.unusedSimpArgs false
/-- of a direction: all but the windows and the length is as it was, no window is lost -/
def Wk (y x : Wy) : Prop := x.ln = y.ln ∧ x.ac = y.ac ∧ x.wt = y.wt ∧ ∀ id, (look y.rw id).isSome = true → (look x.rw id).isSome = true
theorem KOk.of {k k1 : Lk} (h : KOk k) (hT : k1.T = k.T) (hw : ∀ s, Wk (k.wy s) (k1.wy s)) : KOk k1 where
  lv := fun s id v hl => (hw s).2.2.2 id (h.lv s id v (by rw [← hT]; exact hl))
  ln := fun s => by rw [(hw s).1]; exact h.ln s
  ac := fun s => by rw [(hw s).2.1]; exact h.ac s
  wt := fun s => by rw [(hw s).2.2.1]; exact h.wt s
theorem Wk.refl (y : Wy) : Wk y y := ⟨rfl, rfl, rfl, fun _ h => h⟩
theorem KOk.upd {k : Lk} (h : KOk k) (s : Bool) (f : Wy → Wy) (hf : Wk (k.wy s) (f (k.wy s))) : KOk (k.upd s f) := h.of rfl fun t => by
  unfold Lk.upd
  simp only
  by_cases e : t = s
  · rw [if_pos e, e]; exact hf
  · rw [if_neg e]; exact Wk.refl _
theorem isSome_putm {L : Mp} (hs : Srt L) (id n j : Int) (h : (look L j).isSome = true) : (look (putm L id n) j).isSome = true := by
  rw [look_putm hs]
  split
  · rfl
  · exact h
theorem shiftL_keep (n : Int) : ∀ (ids : List Int) (L : Mp), Srt L → Srt (shiftL L n ids).1 ∧ ∀ j, (look L j).isSome = true → (look (shiftL L n ids).1 j).isSome = true
  | [], L, hs => ⟨hs, fun _ h => h⟩
  | id :: r, L, hs => by
    rw [shiftL_cons]
    split
    · have := shiftL_keep n r _ (hs.putm id (sfN ((look L id).getD 0) n))
      exact ⟨this.1, fun j hj => this.2 j (isSome_putm hs _ _ j hj)⟩
    · exact ⟨hs.putm _ _, fun j hj => isSome_putm hs _ _ j hj⟩
theorem KOk.happen {k : Lk} (h : KOk k) (hok : k.T.Ok) (hs : ∀ s, Srt (k.wy s).rw) (s : Bool) (id kd : Int) : KOk (k.happen s id kd).1 := by
  have hw : ∀ t, ((k.happen s id kd).1.wy t).ln = (k.wy t).ln ∧ ((k.happen s id kd).1.wy t).ac = (k.wy t).ac ∧ ((k.happen s id kd).1.wy t).wt = (k.wy t).wt := fun t => by
    unfold Lk.happen
    simp only
    have hb : ∀ (T : Tb) (b : Bool), ((if b = true then (⟨T, k.wy⟩ : Lk).bear id else ⟨T, k.wy⟩ : Lk).wy t).ln = (k.wy t).ln ∧ ((if b = true then (⟨T, k.wy⟩ : Lk).bear id else ⟨T, k.wy⟩ : Lk).wy t).ac = (k.wy t).ac ∧ ((if b = true then (⟨T, k.wy⟩ : Lk).bear id else ⟨T, k.wy⟩ : Lk).wy t).wt = (k.wy t).wt := fun T b => by
      cases b <;> exact ⟨rfl, rfl, rfl⟩
    split <;> exact hb _ _
  exact {
    lv := h.lv.happen hok hs s id kd
    ln := fun t => by rw [(hw t).1]; exact h.ln t
    ac := fun t => by rw [(hw t).2.1]; exact h.ac t
    wt := fun t => by rw [(hw t).2.2]; exact h.wt t }
theorem happen_srt (k : Lk) (hs : ∀ s, Srt (k.wy s).rw) (s : Bool) (id kd : Int) (t : Bool) : Srt ((k.happen s id kd).1.wy t).rw := by
  have hb : ∀ (T : Tb) (b : Bool), Srt ((if b = true then (⟨T, k.wy⟩ : Lk).bear id else ⟨T, k.wy⟩ : Lk).wy t).rw := fun T b => by
    cases b
    · exact hs t
    · exact (hs t).putm _ _
  unfold Lk.happen
  simp only
  split <;> exact hb _ _
theorem KOk.block {k : Lk} (h : KOk k) (e : Et) (hd : e.f.data.size ≤ 1099511627776) : KOk (k.block e) := by
  unfold Lk.block
  split
  · exact h
  · refine ⟨fun t id v hl => ?_, fun t => ?_, fun t => ?_, fun t => ?_⟩
    · have := h.lv t id v hl
      unfold Lk.upd
      simp only
      split <;> exact this
    all_goals
      unfold Lk.upd
      simp only
      split
    · simp only; omega
    · exact h.ln t
    · exact h.ac t
    · exact h.ac t
    · exact h.wt t
    · exact h.wt t
theorem KOk.takeC {k : Lk} (h : KOk k) (s : Bool) (n : Int) : KOk (k.takeC s n).1 := by
  have := h.upd s (fun y => { y with rm := tkN y.rm n }) ⟨rfl, rfl, rfl, fun _ h => h⟩
  exact this
theorem KOk.takeS {k : Lk} (h : KOk k) (hs : ∀ s, Srt (k.wy s).rw) (s : Bool) (id n : Int) : KOk (k.takeS s id n).1 := by
  have := h.upd s (fun y => { y with rw := putm y.rw id (tkN ((look (k.wy s).rw id).getD 0) n) }) ⟨rfl, rfl, rfl, fun j hj => isSome_putm (hs s) _ _ j hj⟩
  exact this
theorem withS_ok {s : St} {q : Int × Int} {c : Bool} (h : okW s) (hv : validS q c = 0) : okW (withS s q) := by
  obtain ⟨x, y⟩ := q
  unfold okW at h ⊢
  unfold validS at hv
  unfold withS
  simp only at hv ⊢
  repeat' split
  all_goals first
    | exact h
    | (simp only; split at hv <;> try (exact absurd hv (by decide))
       simp_all [inB]
       try omega)
theorem applyS_ok (l : List (Int × Int)) (c : Bool) : ∀ s : St, okW s → (applyS s l c).2 = 0 → okW (applyS s l c).1 := by
  induction l with
  | nil => intro s h _; exact h
  | cons q r ih =>
    intro s h h0
    unfold applyS at h0 ⊢
    split at h0
    · rename_i hv
      rw [if_pos hv]
      exact ih _ (withS_ok h hv) h0
    · rename_i hv
      exact absurd h0 hv
theorem sendL_ok {c : Bool} {s : St} {L : List St} {l : List (Int × Int)} (h : okW s) (hL : ∀ x ∈ L, okW x) : ∀ x ∈ sendL c s L l, okW x := by
  intro x hx
  unfold sendL at hx
  split at hx
  · rename_i h0
    split at hx
    · exact hL x hx
    · rcases List.mem_append.1 hx with hx | hx
      · exact hL x hx
      · rw [List.mem_singleton.1 hx]
        refine applyS_ok l c _ ?_ h0
        unfold lastS
        cases hq : L.getLast? with
        | none => rw [List.getLastD_eq_getLast?, hq]; exact h
        | some y => rw [List.getLastD_eq_getLast?, hq]; exact hL y (List.mem_of_getLast? hq)
  · exact hL x hx
variable {k : Lk}
theorem KOk.headers (h : KOk k) (hok : k.T.Ok) (hs : ∀ s, Srt (k.wy s).rw) (e : Et) (hd : e.f.data.size ≤ 1099511627776) : KOk (k.headers e).1 := by
  have h1 := h.happen hok hs e.s e.f.st (e.kind 1 2)
  unfold Lk.headers
  simp only
  repeat' split
  all_goals first
    | exact h1
    | exact h1.block e hd
theorem KOk.promise (h : KOk k) (hok : k.T.Ok) (hs : ∀ s, Srt (k.wy s).rw) (e : Et) (hd : e.f.data.size ≤ 1099511627776) : KOk (k.promise e).1 := by
  have h1 := h.happen hok hs e.s e.f.last 5
  unfold Lk.promise
  simp only
  repeat' split
  all_goals first
    | exact h
    | exact h1
    | exact h1.block e hd
theorem KOk.continuation (h : KOk k) (e : Et) (h0 : (k.continuation e).2 = 0) : KOk (k.continuation e).1 := by
  unfold Lk.continuation at h0 ⊢
  simp only at h0 ⊢
  split at h0
  · exact absurd (show (11 : Int) = 0 from h0) (by decide)
  · rename_i hm
    rw [if_neg hm]
    have h2 : KOk (k.upd e.s fun w => { w with ln := (k.wy e.s).ln + (e.f.data.size : Int) }) := by
      refine ⟨fun t id v hl => ?_, fun t => ?_, fun t => ?_, fun t => ?_⟩
      · have := h.lv t id v hl
        unfold Lk.upd
        simp only
        split <;> exact this
      all_goals
        unfold Lk.upd
        simp only
        split
      · have := (h.ln e.s).1
        simp only
        omega
      · exact h.ln t
      · exact h.ac t
      · exact h.ac t
      · exact h.wt t
      · exact h.wt t
    simp only
    split
    · exact h2.upd _ (fun y => { y with bk := 0 }) ⟨rfl, rfl, rfl, fun _ h => h⟩
    · exact h2
theorem KOk.sendData (h : KOk k) (hok : k.T.Ok) (hs : ∀ s, Srt (k.wy s).rw) (e : Et) : KOk (k.sendData e).1 := by
  have h1 := h.happen hok hs e.s e.f.st (e.kind 3 4)
  have s1 := fun t => happen_srt k hs e.s e.f.st (e.kind 3 4) t
  have h2 := h1.takeC e.s e.size
  have s2 : ∀ t, Srt (((k.happen e.s e.f.st (e.kind 3 4)).1.takeC e.s e.size).1.wy t).rw := fun t => by
    unfold Lk.takeC Lk.upd
    simp only
    split <;> exact s1 t
  have h3 := h2.takeS s2 e.s e.f.st e.size
  unfold Lk.sendData
  simp only
  repeat' split
  all_goals first
    | exact h1
    | exact h2
    | exact h3
theorem KOk.getData (h : KOk k) (hok : k.T.Ok) (hs : ∀ s, Srt (k.wy s).rw) (e : Et) : KOk (k.getData e).1 := by
  have h1 := h.takeC e.s e.size
  have s1 : ∀ t, Srt ((k.takeC e.s e.size).1.wy t).rw := fun t => by
    unfold Lk.takeC Lk.upd
    simp only
    split <;> exact hs t
  have h2 := h1.happen (k := (k.takeC e.s e.size).1) hok s1 e.s e.f.st (e.kind 3 4)
  have s2 := fun t => happen_srt _ s1 e.s e.f.st (e.kind 3 4) t
  have h3 := h2.takeS s2 e.s e.f.st e.size
  unfold Lk.getData
  simp only
  repeat' split
  all_goals first
    | exact h1
    | exact h2
    | exact h3
theorem KOk.resets (h : KOk k) (hok : k.T.Ok) (hs : ∀ s, Srt (k.wy s).rw) (e : Et) : KOk (k.resets e).1 := by
  have h1 := h.happen hok hs e.s e.f.st 6
  unfold Lk.resets
  simp only
  split
  · exact h1
  · exact h1.upd _ (fun y => { y with rs := e.f.st :: y.rs }) ⟨rfl, rfl, rfl, fun _ h => h⟩
theorem KOk.ping (h : KOk k) (e : Et) : KOk (k.ping e).1 := by
  unfold Lk.ping
  split
  · exact h.upd _ (fun y => { y with pg := y.pg ++ [e.f.data] }) ⟨rfl, rfl, rfl, fun _ h => h⟩
  · split
    · exact h
    · rename_i r _
      split
      · exact h.upd _ (fun y => { y with pg := r }) ⟨rfl, rfl, rfl, fun _ h => h⟩
      · exact h
theorem KOk.update (h : KOk k) (hok : k.T.Ok) (hs : ∀ s, Srt (k.wy s).rw) (e : Et) : KOk (k.update e).1 := by
  have h1 := h.happen hok hs e.s e.f.st 7
  have s1 := fun t => happen_srt k hs e.s e.f.st 7 t
  unfold Lk.update
  simp only
  split
  · exact h
  · split
    · exact h.upd _ (fun y => { y with rm := gvN y.rm e.f.last }) ⟨rfl, rfl, rfl, fun _ h => h⟩
    · split
      · exact h
      · split
        · exact h1
        · split
          · exact h1
          · exact h1.upd (!e.s) (fun y => { y with rw := putm y.rw e.f.st (gvN ((look ((k.happen e.s e.f.st 7).1.wy (!e.s)).rw e.f.st).getD 0) e.f.last) }) ⟨rfl, rfl, rfl, fun j hj => isSome_putm (s1 _) _ _ j hj⟩
theorem KOk.settings (h : KOk k) (hs : ∀ s, Srt (k.wy s).rw) (e : Et) : KOk (k.settings e).1 := by
  unfold Lk.settings
  split
  · split
    · exact h
    · rename_i x T hx
      have h1 : KOk (k.upd e.s fun w => { w with ac := x, wt := T }) := by
        have hm := h.wt e.s
        rw [hx] at hm
        refine ⟨fun t id v hl => ?_, fun t => ?_, fun t => ?_, fun t => ?_⟩
        · have := h.lv t id v hl
          unfold Lk.upd
          simp only
          split <;> exact this
        all_goals
          unfold Lk.upd
          simp only
          split
        · exact h.ln t
        · exact h.ln t
        · exact hm x List.mem_cons_self
        · exact h.ac t
        · exact fun y hy => hm y (List.mem_cons_of_mem _ hy)
        · exact h.wt t
      simp only
      split
      · exact h1
      · refine h1.upd e.s (fun w => { w with rw := (shiftL (k.wy e.s).rw (x.win - (k.wy e.s).ac.win) k.T.live).1 }) ⟨rfl, rfl, rfl, fun j hj => ?_⟩
        refine (shiftL_keep _ _ _ (hs e.s)).2 j ?_
        simpa [Lk.upd] using hj
  · split
    · exact h
    · simp only
      refine ⟨fun t id v hl => ?_, fun t => ?_, fun t => ?_, fun t => ?_⟩
      · have := h.lv t id v hl
        unfold Lk.upd
        simp only
        split <;> exact this
      all_goals
        unfold Lk.upd
        simp only
        split
      · exact h.ln t
      · exact h.ln t
      · exact h.ac t
      · exact h.ac t
      · exact sendL_ok (h.ac _) (h.wt _)
      · exact h.wt t
theorem KOk.byType (h : KOk k) (hok : k.T.Ok) (hs : ∀ s, Srt (k.wy s).rw) (e : Et) (hd : e.f.ty = 1 ∨ e.f.ty = 5 → e.f.data.size ≤ 1099511627776) (h0 : (k.byType e).2 = 0) : KOk (k.byType e).1 := by
  unfold Lk.byType at h0 ⊢
  by_cases t1 : e.f.ty = 1
  · rw [if_pos t1]; exact h.headers hok hs e (hd (.inl t1))
  rw [if_neg t1] at h0 ⊢
  by_cases t5 : e.f.ty = 5
  · rw [if_pos t5]; exact h.promise hok hs e (hd (.inr t5))
  rw [if_neg t5] at h0 ⊢
  by_cases t9 : e.f.ty = 9
  · rw [if_pos t9] at h0 ⊢; exact h.continuation e h0
  rw [if_neg t9] at h0 ⊢
  by_cases t0 : e.f.ty = 0
  · rw [if_pos t0]
    split
    · exact h.sendData hok hs e
    · exact h.getData hok hs e
  rw [if_neg t0] at h0 ⊢
  by_cases t3 : e.f.ty = 3
  · rw [if_pos t3]; exact h.resets hok hs e
  rw [if_neg t3] at h0 ⊢
  by_cases t4 : e.f.ty = 4
  · rw [if_pos t4]; exact h.settings hs e
  rw [if_neg t4] at h0 ⊢
  by_cases t6 : e.f.ty = 6
  · rw [if_pos t6]; exact h.ping e
  rw [if_neg t6] at h0 ⊢
  by_cases t7 : e.f.ty = 7
  · rw [if_pos t7]; exact h.upd _ (fun y => { y with ga := true }) ⟨rfl, rfl, rfl, fun _ h => h⟩
  rw [if_neg t7] at h0 ⊢
  by_cases t8 : e.f.ty = 8
  · rw [if_pos t8]; exact h.update hok hs e
  rw [if_neg t8] at h0 ⊢
  by_cases t2 : e.f.ty = 2
  · rw [if_pos t2]; exact h.happen hok hs _ _ _
  rw [if_neg t2]
  exact h
theorem KOk.take (h : KOk k) (hok : k.T.Ok) (hs : ∀ s, Srt (k.wy s).rw) (e : Et) (hd : k.form e = 0 → e.f.ty = 1 ∨ e.f.ty = 5 → e.f.data.size ≤ 1099511627776) (h0 : (k.take e).2 = 0) : KOk (k.take e).1 := by
  unfold Lk.take at h0 ⊢
  split at h0
  · exact absurd (show (1 : Int) = 0 from h0) (by decide)
  · rename_i c1
    rw [if_neg c1]
    split at h0
    · rename_i c2
      exact absurd h0 c2
    · rename_i c2
      rw [if_neg c2]
      split at h0
      · exact absurd (show (1 : Int) = 0 from h0) (by decide)
      · rename_i c3
        rw [if_neg c3]
        split at h0
        · exact absurd (show (5 : Int) = 0 from h0) (by decide)
        · rename_i c4
          rw [if_neg c4]
          refine KOk.byType (h.upd _ (fun y => { y with bg := true }) ⟨rfl, rfl, rfl, fun _ h => h⟩) hok (fun t => ?_) e (hd (by simpa using c2)) h0
          unfold Lk.upd
          simp only
          split <;> exact hs t
/-- the PINGs that wait -/
theorem upd_pg (s : Bool) (f : Wy → Wy) (hf : ∀ y, (f y).pg = y.pg) (t : Bool) : ((k.upd s f).wy t).pg = (k.wy t).pg := by
  unfold Lk.upd
  simp only
  split
  · exact hf _
  · rfl
theorem happen_pg (s : Bool) (id kd : Int) (t : Bool) : ((k.happen s id kd).1.wy t).pg = (k.wy t).pg := by
  have hb : ∀ (T : Tb) (b : Bool), ((if b = true then (⟨T, k.wy⟩ : Lk).bear id else ⟨T, k.wy⟩ : Lk).wy t).pg = (k.wy t).pg := fun T b => by
    cases b <;> rfl
  unfold Lk.happen
  simp only
  split <;> exact hb _ _
theorem block_pg (e : Et) (t : Bool) : ((k.block e).wy t).pg = (k.wy t).pg := by
  unfold Lk.block
  split
  · rfl
  · exact upd_pg e.s (fun w => { w with bk := e.f.st, ln := (e.f.data.size : Int) }) (fun _ => rfl) t
theorem takeC_pg (s : Bool) (n : Int) (t : Bool) : ((k.takeC s n).1.wy t).pg = (k.wy t).pg := upd_pg s (fun w => { w with rm := tkN w.rm n }) (fun _ => rfl) t
theorem takeS_pg (s : Bool) (id n : Int) (t : Bool) : ((k.takeS s id n).1.wy t).pg = (k.wy t).pg := upd_pg s (fun w => { w with rw := putm w.rw id (tkN ((look (k.wy s).rw id).getD 0) n) }) (fun _ => rfl) t
theorem byType_pg (e : Et) (t : Bool) : ((k.byType e).1.wy t).pg.length ≤ (k.wy t).pg.length + 1 := by
  have le : ∀ {l : List ByteArray}, l = (k.wy t).pg → l.length ≤ (k.wy t).pg.length + 1 := fun h => by rw [h]; omega
  unfold Lk.byType
  split
  · refine le ?_
    unfold Lk.headers
    simp only
    repeat' split
    all_goals first
      | exact happen_pg _ _ _ t
      | exact (block_pg e t).trans (happen_pg _ _ _ t)
  split
  · refine le ?_
    unfold Lk.promise
    simp only
    repeat' split
    all_goals first
      | rfl
      | exact happen_pg _ _ _ t
      | exact (block_pg e t).trans (happen_pg _ _ _ t)
  split
  · refine le ?_
    unfold Lk.continuation
    simp only
    repeat' split
    all_goals first
      | (simp only [Lk.upd]; (repeat' split) <;> first | rfl | exact happen_pg _ _ _ t)
      | (simp only [Lk.upd]; (repeat' split) <;> first | rfl | exact happen_pg _ _ _ t)
  split
  · refine le ?_
    split
    · unfold Lk.sendData
      simp only
      repeat' split
      all_goals first
        | exact happen_pg _ _ _ t
        | exact (takeC_pg _ _ t).trans (happen_pg _ _ _ t)
        | exact (takeS_pg _ _ _ t).trans ((takeC_pg _ _ t).trans (happen_pg _ _ _ t))
    · unfold Lk.getData
      simp only
      repeat' split
      all_goals first
        | exact takeC_pg _ _ t
        | exact (happen_pg _ _ _ t).trans (takeC_pg _ _ t)
        | exact (takeS_pg _ _ _ t).trans ((happen_pg _ _ _ t).trans (takeC_pg _ _ t))
  split
  · refine le ?_
    unfold Lk.resets
    simp only
    split
    · exact happen_pg _ _ _ t
    · (simp only [Lk.upd]; (repeat' split) <;> first | rfl | exact happen_pg _ _ _ t)
  split
  · refine le ?_
    unfold Lk.settings
    split
    · split
      · rfl
      · simp only
        split
        · (simp only [Lk.upd]; (repeat' split) <;> first | rfl | exact happen_pg _ _ _ t)
        · (simp only [Lk.upd]; (repeat' split) <;> first | rfl | exact happen_pg _ _ _ t)
    · split
      · rfl
      · (simp only [Lk.upd]; (repeat' split) <;> first | rfl | exact happen_pg _ _ _ t)
  split
  · unfold Lk.ping
    split
    · unfold Lk.upd
      simp only
      split
      · simp
      · omega
    · split
      · simp only; omega
      · rename_i p r hp
        split
        · unfold Lk.upd
          simp only
          split
          · rename_i e1
            rw [e1, hp]
            simp only [List.length_cons]
            omega
          · omega
        · simp only; omega
  split
  · (refine le ?_; simp only [Lk.upd]; (repeat' split) <;> first | rfl | exact happen_pg _ _ _ t)
  split
  · refine le ?_
    unfold Lk.update
    simp only
    split
    · rfl
    · split
      · (simp only [Lk.upd]; (repeat' split) <;> first | rfl | exact happen_pg _ _ _ t)
      · split
        · rfl
        · split
          · exact happen_pg _ _ _ t
          · split
            · exact happen_pg _ _ _ t
            · (simp only [Lk.upd]; (repeat' split) <;> first | rfl | exact happen_pg _ _ _ t)
  split
  · exact le (happen_pg _ _ _ t)
  · simp only; omega
theorem take_pg (e : Et) (t : Bool) : ((k.take e).1.wy t).pg.length ≤ (k.wy t).pg.length + 1 := by
  unfold Lk.take
  split
  · simp only; omega
  split
  · simp only; omega
  split
  · simp only; omega
  split
  · simp only; omega
  · have := byType_pg (k := k.upd e.s fun w => { w with bg := true }) e t
    rw [upd_pg e.s (fun w => { w with bg := true }) (fun _ => rfl) t] at this
    exact this
end Go.Proofs.YtfmljlflnpmceaaGreatDoor
/- Check. -/
namespace Go.Proofs.YtfmljlflnpmceaaGreatDoor
open Go.RowKit
set_option linter.unusedVariables false
set_option linter.unusedSimpArgs false
/-- an entry as it lies in a log: with its params' slice -/
structure Ec where
  e : Et
  b : Option Addr
  n : Nat
  c : Nat
def Ec.p (x : Ec) : Value := .slice x.b x.n x.c
def EE : El Ec := ⟨22, 33, 12, 120, fun x => (env x.e.s x.e.f x.p).toList⟩
theorem okEE : EE.Ok := ⟨Tryz.underlying22, by kernel_rfl, by decide, by decide, fun _ => rfl, fun a u hu => by
  simp only [EE, env, Ec.p, List.mem_cons, List.not_mem_nil, or_false] at hu
  rcases hu with rfl | rfl | rfl | rfl | rfl | rfl | rfl | rfl | rfl | rfl | rfl | rfl <;> rfl⟩
theorem In.ent {w : World} {v : Value} {l : List Ec} (h : In EE w v l) (k : Nat) (hk : k < l.length) : ∃ B off cap, v = .slice (some ⟨B, off, none⟩) l.length cap ∧ B < w.heap.size ∧ ∀ i u, (env l[k].e.s l[k].e.f l[k].p).toList[i]? = some u → w.cell? ⟨B, off + k * 12 + i, none⟩ = some u := by
  obtain ⟨B, off, cap, h1, h2, h3⟩ := h.get okEE k hk
  exact ⟨B, off, cap, h1, h2, h3⟩
theorem chk_cons (k : Lk) (e : Et) (r : List Et) (i : Nat) : chk k (e :: r) i = if (k.take e).2 = 0 then chk (k.take e).1 r (i + 1) else ((i : Int), (k.take e).2) := rfl
theorem asm_data {f : Fm.Fr} {ps : List (Int × Int)} (h : f.ty = 1 ∨ f.ty = 5) : f.data.size ≤ (Fm.asmB f ps).size := by
  have hp : f.data.size ≤ (Fm.payB (Fm.kd f.ty f.fl).2.2.1 f ps).length := by
    have hd : f.data.data.toList.length = f.data.size := by rw [Array.length_toList]; rfl
    rcases h with h | h
    · by_cases h3 : Fm.hasF f.fl 32 = true
      · have : (Fm.kd f.ty f.fl).2.2.1 = 91 := by unfold Fm.kd; rw [if_pos ⟨h, h3⟩]
        rw [this]
        simp [Fm.payB]
        try omega
      · have hk : ∃ q, (Fm.kd f.ty f.fl).2.2.1 = q ∧ Fm.payB q f ps = f.data.data.toList := by
          refine ⟨_, rfl, ?_⟩
          unfold Fm.kd
          rw [h]
          simp [h3]
          rfl
        obtain ⟨q, e1, e2⟩ := hk
        rw [e1, e2, hd]
        exact Nat.le_refl _
    · have : (Fm.kd f.ty f.fl).2.2.1 = 101 := by unfold Fm.kd; rw [h]; simp
      rw [this]
      simp [Fm.payB]
      try omega
  have hw : (Fm.payB (Fm.kd f.ty f.fl).2.2.1 f ps).length ≤ (Fm.wholeB f ps).length := by
    unfold Fm.wholeB
    split
    · simp
      try omega
    · exact Nat.le_refl _
  have : (Fm.asmB f ps).size = 9 + (Fm.wholeB f ps).length := by
    simp [Fm.asmB, ByteArray.size, Fm.headS_length]
  omega
theorem KOk.new (c : Bool) : KOk (Lk.new c) := ⟨fun s id v hl => by simp [Lk.new, Tb.new, look] at hl, fun s => by simp [Lk.new, Wy.new], fun s => by simp [Lk.new, Wy.new, okW, St.dfl], fun s x hx => by simp [Lk.new, Wy.new] at hx⟩
/-- the state behind i entries -/
def CkJ (w W : World) (g : Nat) (c : Bool) (xs : List Ec) (i : Nat) : Prop :=
  ∃ (A : LA) (k : Lk), A.g = g ∧ LJ w W A k (3 * i) ∧ KOk k ∧ (∀ s, (k.wy s).pg.length ≤ i) ∧ checkS (xs.map (·.e)) c = chk k ((xs.drop i).map (·.e)) i
set_option maxRecDepth 100000 in
set_option maxHeartbeats 40000000 in
theorem check_any (xs : List Ec) (v : Value) (c : Bool) (w : World) (hv : In EE w v xs) (he : ∀ x ∈ xs, EOk w x.e x.p) (h0 : Std w) (hK : Fm.Kinds w) (hw2 : 2 ≤ w.heap.size) (hlen : xs.length ≤ 1099511627776) :
    Calls Tryz.prog 9 #[v, .bool c] w fun r w' => r = .returned (.tuple #[.int .i64 (checkS (xs.map (·.e)) c).1, .int .i64 (checkS (xs.map (·.e)) c).2]) ∧ Below w.heap.size w w' := by
  obtain ⟨Q, hQ⟩ : ∃ Q, checkS (xs.map (·.e)) c = Q := ⟨_, rfl⟩
  have HQ : Hid (checkS (xs.map (·.e)) c = Q) := hQ
  rw [hQ]
  have HV : Hid (In EE w v xs) := hv
  obtain ⟨vb, vc, rfl, hc1, hc2⟩ := hv.slice
  obtain ⟨n, hn⟩ : ∃ n, xs.length = n := ⟨_, rfl⟩
  rw [hn] at hc1 HV hlen ⊢
  have HN : Hid (xs.length = n) := hn
  have HS : Hid ((∀ x ∈ xs, EOk w x.e x.p) ∧ Std w ∧ Fm.Kinds w ∧ 2 ≤ w.heap.size) := ⟨he, h0, hK, hw2⟩
  clear hn hv hQ he h0 hK hw2
  go_enter Tryz.func9, Tryz.ntmps9
  go_wp2_with fail
  go_at_call 22
  refine (begin_any c w HS.out.2.1).mono ?_
  rintro e V0 ⟨A0, rfl, hL0⟩
  obtain ⟨g, hg⟩ : ∃ g, A0.g = g := ⟨_, rfl⟩
  have HJ0 : Hid (CkJ w V0 g c xs 0) := ⟨A0, Lk.new c, hg, hL0, KOk.new c, fun s => by simp [Lk.new, Wy.new], rfl⟩
  rw [hg]
  clear hL0 hg
  go_wp2_with fail
  go_loopw [14] (fun i wr => ∃ j : Nat, j ≤ n ∧ i = .int .i64 (j : Int) ∧ Hid (CkJ w wr g c xs j)) (fun i _ => n - (intOf i).toNat)
  case atStart => exact ⟨0, Nat.zero_le _, rfl, HJ0.out⟩
  case round =>
    obtain ⟨j, hj, rfl, HP⟩ := hrel
    obtain ⟨A, k, hAg, hL, hk, hpg, hck⟩ := HP.out
    have hlenx := HN.out
    by_cases hlt : j < n
    · obtain ⟨B, off, cap, hvb, hBl, hcells⟩ := (HV.out.below hL.bel).ent j (by omega)
      injection hvb with e1 e2 e3
      subst e1
      clear e2 e3
      obtain ⟨x, hx⟩ : ∃ x, xs[j]'(by omega) = x := ⟨_, rfl⟩
      rw [hx] at hcells
      have hmem : x ∈ xs := by rw [← hx]; exact List.getElem_mem _
      have hxe := HS.out.1 x hmem
      have hdrop : (xs.drop j).map (·.e) = x.e :: (xs.drop (j + 1)).map (·.e) := by rw [← hx, List.drop_eq_getElem_cons (by omega)]; rfl
      rw [hdrop, chk_cons, HQ.out] at hck
      obtain ⟨tk', htk⟩ : ∃ v, k.take x.e = v := ⟨_, rfl⟩
      have HT : Hid (∀ V, LJ w V A k (3 * j) → Calls Tryz.prog 23 #[.pointer (some ⟨g, 0, none⟩), .agg (env x.e.s x.e.f x.p)] V fun r w' => r = .returned (.int .i64 tk'.2) ∧ ∃ A' : LA, A'.g = g ∧ LJ w w' A' tk'.1 (3 * (j + 1))) := fun V hV => by
        have := takeE_any x.e x.p w V A k (3 * j) hV hk hxe (by unfold maxLen; omega) (fun s => by have := hpg s; omega) HS.out.2.1 HS.out.2.2.1 HS.out.2.2.2
        rw [htk, hAg] at this
        refine this.mono ?_
        rintro r w' ⟨rfl, A', z1, _, z2⟩
        exact ⟨rfl, A', z1, z2⟩
      have HNx : Hid (tk'.2 = 0 → KOk tk'.1 ∧ ∀ s, (tk'.1.wy s).pg.length ≤ j + 1) := fun hz => by
        rw [← htk] at hz ⊢
        refine ⟨hk.take hL.ti.ok (fun s => (hL.wi s).srt) x.e (fun hf ht => ?_) hz, fun s => ?_⟩
        · have h1 := (form_right hxe.fn (frm := (k.wy x.e.s).ac.frm) hf).2
          have h2 := asm_data (ps := x.e.ps) ht
          omega
        · have := take_pg (k := k) x.e s
          have := hpg s
          omega
      have HX : Hid (Q = if tk'.2 = 0 then chk tk'.1 ((xs.drop (j + 1)).map (·.e)) (j + 1) else ((j : Int), tk'.2)) := by show _ = _; rw [hck, htk]
      have HL : Hid (LJ w wr A k (3 * j)) := hL
      obtain ⟨⟨es, ⟨ey, el, et, ed, ep, ee, eX, ew, ec, eL⟩, eps, en⟩, pb, pn, pc⟩ := x
      simp only [env, Ec.p] at hcells HT
      have d0 := hcells 0 _ rfl
      have d1 := hcells 1 _ rfl
      have d2 := hcells 2 _ rfl
      have d3 := hcells 3 _ rfl
      have d4 := hcells 4 _ rfl
      have d5 := hcells 5 _ rfl
      have d6 := hcells 6 _ rfl
      have d7 := hcells 7 _ rfl
      have d8 := hcells 8 _ rfl
      have d9 := hcells 9 _ rfl
      have d10 := hcells 10 _ rfl
      have d11 := hcells 11 _ rfl
      simp only [Nat.add_zero] at d0
      have hlti : (j : Int) < (n : Int) := by omega
      clear hcells hL hk hpg hck hlenx hx hmem hxe hdrop htk HP hAg
      obtain ⟨k2, c2⟩ := tk'
      simp only at HT HNx HX
      go_wp2_with fail
      go_at_call 23
      refine (HT.out _ (HL.out.below (bel1 _ _))).mono ?_
      rintro e' V2 ⟨rfl, A', a1, a2⟩
      have HE : Hid (A'.g = g ∧ LJ w V2 A' k2 (3 * (j + 1))) := ⟨a1, a2⟩
      clear a1 a2 d0 d1 d2 d3 d4 d5 d6 d7 d8 d9 d10 d11 HT HL
      by_cases hc : c2 = 0
      · subst hc
        have HJ : Hid (CkJ w V2 g c xs (j + 1)) := ⟨A', k2, HE.out.1, HE.out.2, (HNx.out rfl).1, (HNx.out rfl).2, by rw [HQ.out, HX.out, if_pos rfl]⟩
        have hjw : wrap64 ((j : Int) + 1) = ((j + 1 : Nat) : Int) := by unfold wrap64; omega
        clear HNx
        go_wp2_with fail
        go_roundw
        case rel => exact ⟨j + 1, by omega, by first | rfl | (rw [hjw]) | simp, HJ.out⟩
        case measure => simp [intOf]; omega
      · have hcb : (c2 == 0) = false := beq_eq_false_iff_ne.2 hc
        have HQ2 : Hid (Q = ((j : Int), c2)) := by show _ = _; rw [HX.out, if_neg hc]
        clear HNx
        go_wp2_with fail
        go_ret2
        exact ⟨by rw [HQ2.out]; rfl, HE.out.2.bel⟩
    · have hnlt : ¬ (j : Int) < (n : Int) := by omega
      have HQ2 : Hid (Q = (-1, 0)) := by
        show _ = _
        rw [← HQ.out, hck, List.drop_eq_nil_of_le (by omega)]
        rfl
      have HB : Hid (Below w.heap.size w wr) := hL.bel
      clear hL hk hpg hck hlenx HP hAg
      go_wp2_with fail
      go_ret2
      exact ⟨by rw [HQ2.out]; rfl, HB.out⟩
end Go.Proofs.YtfmljlflnpmceaaGreatDoor
/- A log with lists of its own. -/
namespace Go.Proofs.YtfmljlflnpmceaaGreatDoor
open Go.RowKit
set_option linter.unusedVariables false
set_option linter.unusedSimpArgs false
/-- behind i entries -/
def OwJ (w W : World) (o : Value) (ys xs : List Ec) (i : Nat) : Prop :=
  R EE W o ys ∧ ys.map (·.e) = (xs.take i).map (·.e) ∧ (∀ y ∈ ys, R EP W y.p y.e.ps ∧ ∀ j, y.p.ownBlock = some j → w.heap.size ≤ j) ∧ (∀ j, o.ownBlock = some j → w.heap.size ≤ j) ∧ Below w.heap.size w W
theorem OwJ.step {w W W2 W3 : World} {o o2 : Value} {ys xs : List Ec} {i : Nat} {x y : Ec} (h : OwJ w W o ys xs i) (hx : xs[i]? = some x) (hye : y.e = x.e) (h2 : Below W.heap.size W W2) (hp : R EP W2 y.p y.e.ps) (hpo : ∀ j, y.p.ownBlock = some j → W.heap.size ≤ j) (hG : Gr W2 W3 o o2) (hR : R EE W3 o2 (ys ++ [y])) : OwJ w W3 o2 (ys ++ [y]) xs (i + 1) := by
  obtain ⟨a1, a2, a3, a4, a5⟩ := h
  have hz := a5.size
  have hz2 := h2.size
  have keep : ∀ (q : Value) (l : List (Int × Int)), R EP W2 q l → R EP W3 q l := fun q l hq => hq.stays fun j hj hl => hG.block j hl fun e => by
    obtain ⟨c, hc⟩ := hq.ty j hj
    obtain ⟨c', hc'⟩ := (a1.below h2).ty j e
    exact ty_ne hc hc' (by decide) rfl
  refine ⟨hR, ?_, fun z hz' => ?_, fun j hj => ?_, a5.trans ((h2.mono hz).trans (hG.belowB (by omega) a4))⟩
  · rw [List.map_append, a2, List.take_add_one, hx, List.map_append]
    simp [hye]
  · rcases List.mem_append.1 hz' with hm | hm
    · exact ⟨keep _ _ ((a3 z hm).1.below h2), (a3 z hm).2⟩
    · rw [List.mem_singleton.1 hm]
      exact ⟨keep _ _ hp, fun j hj => Nat.le_trans hz (hpo j hj)⟩
  · rcases hG.own j hj with e | e
    · exact a4 j e
    · omega
set_option maxRecDepth 100000 in
set_option maxHeartbeats 40000000 in
theorem own_any (xs : List Ec) (v : Value) (w : World) (hv : In EE w v xs) (hp : ∀ x ∈ xs, In EP w x.p x.e.ps ∧ x.e.ps.length ≤ 1099511627776) (hlen : xs.length ≤ 1073741824) :
    Calls Tryz.prog 10 #[v] w fun r w' => ∃ v' ys, r = .returned v' ∧ OwJ w w' v' ys xs xs.length := by
  have HV : Hid (In EE w v xs) := hv
  obtain ⟨vb, vc, rfl, hc1, hc2⟩ := hv.slice
  obtain ⟨n, hn⟩ : ∃ n, xs.length = n := ⟨_, rfl⟩
  rw [hn] at hc1 HV hlen ⊢
  have HN : Hid (xs.length = n) := hn
  have HP : Hid (∀ x ∈ xs, In EP w x.p x.e.ps ∧ x.e.ps.length ≤ 1099511627776) := hp
  clear hn hv hp
  have HJ0 : Hid (OwJ w w (.slice none 0 0) [] xs 0) := ⟨R.nil _ _, rfl, (fun y hy => by cases hy), (fun j hj => by simp [Value.ownBlock] at hj), Below.refl _ _⟩
  go_enter Tryz.func10, Tryz.ntmps10
  go_wp2_with fail
  go_loopw [3, 4] (fun o i wr => ∃ (j : Nat) (ob : Option Addr) (oc : Nat), j ≤ n ∧ i = .int .i64 (j : Int) ∧ o = .slice ob j oc ∧ Hid (∃ ys, OwJ w wr (.slice ob j oc) ys xs j)) (fun _ i _ => n - (intOf i).toNat)
  case atStart => exact ⟨0, none, 0, Nat.zero_le _, rfl, rfl, [], HJ0.out⟩
  case round =>
    obtain ⟨j, ob, oc, hj, rfl, rfl, HI⟩ := hrel
    obtain ⟨ys, hJ⟩ := HI.out
    have hlenx := HN.out
    by_cases hlt : j < n
    · obtain ⟨B, off, cap, hvb, hBl, hcells⟩ := (HV.out.below hJ.2.2.2.2).ent j (by omega)
      injection hvb with e1 e2 e3
      subst e1
      clear e2 e3
      obtain ⟨x, hx⟩ : ∃ x, xs[j]'(by omega) = x := ⟨_, rfl⟩
      rw [hx] at hcells
      have hmem : x ∈ xs := by rw [← hx]; exact List.getElem_mem _
      have hxi : xs[j]? = some x := by rw [List.getElem?_eq_getElem (by omega), hx]
      have hxp := HP.out x hmem
      have hyl : ys.length = j := by
        have := congrArg List.length hJ.2.1
        simp at this
        omega
      obtain ⟨⟨es, ⟨ey, el, et, ed, ep, ee, eX, ew, ec, eL⟩, eps, en⟩, pb, pn, pc⟩ := x
      simp only [env, Ec.p] at hcells hxp
      obtain ⟨W1, hW1⟩ : ∃ V, wr.alloc (.cells #[.bool es, .int .i64 ey, .int .i64 el, .int .i64 et, .string ed, .int .i64 ep, .int .i64 ee, .bool eX, .int .i64 ew, .int .i64 ec, .int .i64 eL, .slice pb pn pc] 33) = V := ⟨_, rfl⟩
      obtain ⟨q, hq⟩ : ∃ q, wr.heap.size = q := ⟨_, rfl⟩
      have b1 : Below wr.heap.size wr W1 := by rw [← hW1]; exact bel1 _ _
      have g1 : W1.heap[q]? = some (.cells #[.bool es, .int .i64 ey, .int .i64 el, .int .i64 et, .string ed, .int .i64 ep, .int .i64 ee, .bool eX, .int .i64 ew, .int .i64 ec, .int .i64 eL, .slice pb pn pc] 33 (0, 0)) := by rw [← hW1, ← hq, heap_al, if_pos rfl]
      have hz1 : W1.heap.size = q + 1 := by rw [← hW1, ← hq]; simp
      have hpl : eps.length = pn := by
        obtain ⟨_, _, e, _⟩ := hxp.1.slice
        injection e with _ e2 _
        exact e2.symm
      obtain ⟨qb, qc, W2, hrun, hR2, hG2⟩ := app okP W1 (.slice none 0 0) [] (R.nil _ _) (.slice pb pn pc) eps ((hxp.1.below hJ.2.2.2.2).below b1) (by simp only [EP, List.length_nil]; omega)
      simp only [List.length_nil, Nat.zero_add, List.nil_append, hpl] at hrun hR2 hG2
      have b2 : Below W1.heap.size W1 W2 := hG2.fresh
      have hqn := hG2.new
      have g2 : W2.heap[q]? = some (.cells #[.bool es, .int .i64 ey, .int .i64 el, .int .i64 et, .string ed, .int .i64 ep, .int .i64 ee, .bool eX, .int .i64 ew, .int .i64 ec, .int .i64 eL, .slice pb pn pc] 33 (0, 0)) := (b2.block _ (heap_lt g1)).trans g1
      obtain ⟨W3, hW3⟩ : ∃ V, W2.setCell ⟨q, 11, none⟩ (.slice qb pn qc) = V := ⟨_, rfl⟩
      have g3 : W3.heap[q]? = some (.cells #[.bool es, .int .i64 ey, .int .i64 el, .int .i64 et, .string ed, .int .i64 ep, .int .i64 ee, .bool eX, .int .i64 ew, .int .i64 ec, .int .i64 eL, .slice qb pn qc] 33 (0, 0)) := by rw [← hW3, setCell_block _ _ _ _ _ _ _ g2]; rfl
      have b3 : Below wr.heap.size wr W3 := by
        rw [← hW3]
        exact b1.trans ((b2.mono (by omega)).trans ((Ks.setCell (fun i => i = q) W2 q 11 _ rfl).below (by have := b2.size; omega) (fun i hi e => by omega)))
      have hR3 : R EP W3 (.slice qb pn qc) eps := by
        rw [← hW3]
        exact hR2.stays fun i hi hl => setCell_other _ _ _ _ _ fun e => by have := hqn i hi; omega
      obtain ⟨W4, hW4⟩ : ∃ V, W3.alloc (.cells #[.bool es, .int .i64 ey, .int .i64 el, .int .i64 et, .string ed, .int .i64 ep, .int .i64 ee, .bool eX, .int .i64 ew, .int .i64 ec, .int .i64 eL, .slice qb pn qc] 33) = V := ⟨_, rfl⟩
      obtain ⟨q4, hq4⟩ : ∃ q, W3.heap.size = q := ⟨_, rfl⟩
      have b4 : Below W3.heap.size W3 W4 := by rw [← hW4]; exact bel1 _ _
      have g4 : W4.heap[q4]? = some (.cells #[.bool es, .int .i64 ey, .int .i64 el, .int .i64 et, .string ed, .int .i64 ep, .int .i64 ee, .bool eX, .int .i64 ew, .int .i64 ec, .int .i64 eL, .slice qb pn qc] 33 (0, 0)) := by rw [← hW4, ← hq4, heap_al, if_pos rfl]
      have b34 : Below wr.heap.size wr W4 := b3.trans (b4.mono b3.size)
      obtain ⟨nb, nc, W5, hrun5, hR5, hG5⟩ := app okEE W4 (.slice ob j oc) ys (hJ.1.below b34) (.slice (some ⟨q4, 0, none⟩) 1 1) [⟨⟨es, ⟨ey, el, et, ed, ep, ee, eX, ew, ec, eL⟩, eps, en⟩, qb, pn, qc⟩] (in_one _ q4 _ _ 33 (0, 0) g4 rfl) (by simp only [EE, List.length_cons, List.length_nil]; omega)
      simp only [List.length_cons, List.length_nil, Nat.zero_add, hyl] at hrun5 hR5 hG5
      have HE : Hid (∃ zs, OwJ w W5 (.slice nb (j + 1) nc) zs xs (j + 1)) := ⟨_, hJ.step (y := ⟨⟨es, ⟨ey, el, et, ed, ep, ee, eX, ew, ec, eL⟩, eps, en⟩, qb, pn, qc⟩) hxi rfl b34 (hR3.below b4) (fun i hi => by have := hqn i hi; omega) hG5 hR5⟩
      have d0 := hcells 0 _ rfl
      have d1 := hcells 1 _ rfl
      have d2 := hcells 2 _ rfl
      have d3 := hcells 3 _ rfl
      have d4 := hcells 4 _ rfl
      have d5 := hcells 5 _ rfl
      have d6 := hcells 6 _ rfl
      have d7 := hcells 7 _ rfl
      have d8 := hcells 8 _ rfl
      have d9 := hcells 9 _ rfl
      have d10 := hcells 10 _ rfl
      have d11 := hcells 11 _ rfl
      simp only [Nat.add_zero] at d0
      have f11 : W1.cell? ⟨B, off + j * 12 + 11, none⟩ = some (.slice pb pn pc) := (b1.cell hBl).trans d11
      have HG : Hid (W2.heap[q]? = some (.cells #[.bool es, .int .i64 ey, .int .i64 el, .int .i64 et, .string ed, .int .i64 ep, .int .i64 ee, .bool eX, .int .i64 ew, .int .i64 ec, .int .i64 eL, .slice pb pn pc] 33 (0, 0)) ∧ W3.heap[q]? = some (.cells #[.bool es, .int .i64 ey, .int .i64 el, .int .i64 et, .string ed, .int .i64 ep, .int .i64 ee, .bool eX, .int .i64 ew, .int .i64 ec, .int .i64 eL, .slice qb pn qc] 33 (0, 0))) := ⟨g2, g3⟩
      have hlti : (j : Int) < (n : Int) := by omega
      simp only [EP, EE] at hrun hrun5
      have HRUN := hid hrun
      have HRUN5 := hid hrun5
      clear hcells hJ hlenx hx hmem hxi hxp hyl HI b1 g1 hz1 hpl hR2 hG2 b2 hqn g2 g3 b3 hR3 b4 g4 b34 hR5 hG5 hrun hrun5
      go_upto_region 6 with fail
      try rw [hW1]
      try rw [hq]
      clear hW1 hq d0 d1 d2 d3 d4 d5 d6 d7 d8 d9 d10 d11
      have r11 := cell_blk HG.out.1 11
      have rf := frozen_blk HG.out.1 11
      simp only [List.getElem?_toArray, List.getElem?_cons_succ, List.getElem?_cons_zero] at r11
      go_upto_region 7 with (at_builtin; refine Lib.wpList_append_run _ rfl _ _ _ _ rfl _ _ rfl rfl _ _ HRUN.out ?_)
      try rw [hW3]
      clear hW3 HRUN r11 rf f11
      have k0 := cell_blk HG.out.2 0
      have k1 := cell_blk HG.out.2 1
      have k2 := cell_blk HG.out.2 2
      have k3 := cell_blk HG.out.2 3
      have k4 := cell_blk HG.out.2 4
      have k5 := cell_blk HG.out.2 5
      have k6 := cell_blk HG.out.2 6
      have k7 := cell_blk HG.out.2 7
      have k8 := cell_blk HG.out.2 8
      have k9 := cell_blk HG.out.2 9
      have k10 := cell_blk HG.out.2 10
      have k11 := cell_blk HG.out.2 11
      simp only [List.getElem?_toArray, List.getElem?_cons_succ, List.getElem?_cons_zero] at k0 k1 k2 k3 k4 k5 k6 k7 k8 k9 k10 k11
      have hjw : wrap64 ((j : Int) + 1) = ((j + 1 : Nat) : Int) := by unfold wrap64; omega
      go_wp2_with (at_builtin; refine Lib.wpList_append_run _ rfl _ _ _ _ rfl _ _ rfl rfl _ _ HRUN5.out ?_)
      go_roundw
      case rel => exact ⟨j + 1, nb, nc, by omega, by first | rfl | (rw [hjw]) | simp, rfl, HE.out⟩
      case measure => simp [intOf]; omega
    · have hnlt : ¬ (j : Int) < (n : Int) := by omega
      have hjn : j = n := by omega
      subst hjn
      have HE : Hid (∃ zs, OwJ w wr (.slice ob j oc) zs xs j) := ⟨ys, hJ⟩
      clear hJ hlenx HI
      go_wp2_with fail
      go_ret
      obtain ⟨zs, hz⟩ := HE.out
      first | exact ⟨_, zs, rfl, hz⟩ | exact ⟨_, ⟨_, rfl⟩, zs, hz⟩ | exact ⟨.slice ob j oc, rfl, zs, hz⟩
end Go.Proofs.YtfmljlflnpmceaaGreatDoor
