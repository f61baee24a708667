/- The document's Of. -/
import Derived.Test.YtbifmikndpeafaaDoorL1
namespace Go.Proofs.YtbifmikndpeafaaDoor
open Go.RowKit Go.Maps
set_option linter.unusedVariables false
set_option linter.unusedSimpArgs false
def RoPost (l : List Og) (w : World) (e : Ending) (w' : World) : Prop :=
  Below w.heap.size w w' ∧ ((ofE l = 0 ∧ ∃ p v, e = .returned (.tuple #[.pointer (some ⟨p, 0, none⟩), .int .i64 0]) ∧ Sd w' p v l ∧ w.heap.size ≤ p ∧ ∀ j, (sv v).ownBlock = some j → w.heap.size ≤ j) ∨ (ofE l ≠ 0 ∧ e = .returned (.tuple #[.pointer none, .int .i64 (ofE l)])))
theorem mem_any {M : List Og} {y : Og} : M.any (fun z => ogD z y) = true ↔ y ∈ M := by
  rw [List.any_eq_true]
  exact ⟨fun ⟨x, h1, h2⟩ => by rw [← ogD_iff.1 h2]; exact h1, fun h => ⟨y, h, ogD_self y⟩⟩
set_option maxHeartbeats 16000000 in
set_option maxRecDepth 100000 in
theorem rof_any (x : SV) (l : List Og) (w : World) (hI : In EO w (sv x) l) (hl : l.length * 40 ≤ 140737488351232) : Calls Tryd.prog 19 #[sv x] w (RoPost l w) := by
  have HI : Hid (In EO w (sv x) l) := hI
  obtain ⟨b, c, e, m1, m2⟩ := hI.slice
  obtain ⟨sb, sl, sc⟩ := x
  simp only [sv] at e HI ⊢
  injection e with e1 e2 e3
  subst e1 e2 e3
  obtain ⟨p, hp⟩ : ∃ p, w.heap.size = p := ⟨_, rfl⟩
  have Hwp : Hid (w.heap.size ≤ p) := by rw [hp]; exact Nat.le_refl _
  obtain ⟨W0, hW0⟩ : ∃ W, w.alloc (.cells #[.slice none 0 0] 65) = W := ⟨_, rfl⟩
  have HB0 : Hid (Below w.heap.size w W0) := by rw [← hW0]; exact bel1 _ _
  have HS0 : Hid (Sd W0 p (none, 0, 0) []) := ⟨by rw [← hW0, ← hp, heap_al, if_pos rfl]; rfl, R.nil EO W0, fun j hj => by simp [sv, Value.ownBlock] at hj⟩
  clear hI
  go_enter Tryd.func19, Tryd.ntmps19
  go_wp2_with fail
  try rw [hp]
  try rw [hW0]
  clear hW0 hp
  go_loopw [5, 6, 7] (fun tv iv _ wr => ∃ (i : Nat) (τ : Bool) (v : SV) (M : List Og), tv = .bool τ ∧ iv = .int .i64 (i : Int) ∧ i ≤ l.length ∧ Hid (Sd wr p v M ∧ (∀ j, (sv v).ownBlock = some j → w.heap.size ≤ j) ∧ Below w.heap.size w wr ∧ (∀ z ∈ l.take i, rtB z = true) ∧ (τ = true → ¬ (l.take i).Nodup) ∧ (τ = false → (l.take i).Nodup ∧ M = l.take i) ∧ M.length ≤ i)) (fun _ iv _ _ => l.length - (intOf iv).toNat)
  case atStart => exact ⟨0, false, (none, 0, 0), [], rfl, rfl, by omega, HS0.out, fun j hj => (by simp [sv, Value.ownBlock] at hj), HB0.out, fun z hz => (by simp at hz), fun h => (by cases h), fun _ => ⟨by simp, by simp⟩, by simp⟩
  case round =>
    obtain ⟨i, τ, ⟨v1, k, v3⟩, M, rfl, rfl, hi, hJ⟩ := hrel
    have HMk : Hid (M.length = k) := by
      obtain ⟨_, _, e, _, _⟩ := hJ.out.1.row.slice
      simp only [sv] at e
      injection e with _ e2 _
      exact e2.symm
    by_cases hlt : i < l.length
    · have a1 : (i : Int) < (l.length : Int) := by omega
      obtain ⟨Bk, off, cap, e, hBk, hc⟩ := HI.out.og i hlt
      injection e with e1 e2 e3
      clear e2 e3
      subst e1
      obtain ⟨y, hy⟩ : ∃ y, l[i] = y := ⟨_, rfl⟩
      rw [hy] at hc
      have HCy : Hid (∀ W, Below w.heap.size w W → W.cell? ⟨Bk, off + i * 3, none⟩ = some (.string y.s) ∧ W.cell? ⟨Bk, off + i * 3 + 1, none⟩ = some (.string y.h) ∧ W.cell? ⟨Bk, off + i * 3 + 2, none⟩ = some (.int .i64 y.p)) := hc
      have HTk : Hid (l.take (i + 1) = l.take i ++ [y]) := by show _ = _; rw [List.take_succ_eq_append_getElem hlt, hy]
      have HYm : Hid (y ∈ l) := by rw [← hy]; exact List.getElem_mem hlt
      have HRc : Hid (∀ W, Calls Tryd.prog 29 #[.agg #[.string y.s, .string y.h, .int .i64 y.p]] W fun e w' => e = .returned (.bool (rtB y)) ∧ Below W.heap.size W w') := fun W => rright_any y W
      obtain ⟨c0, c1, c2⟩ := hc wr hJ.out.2.2.1
      clear hc hy
      cases hr : rtB y
      · rw [hr] at HRc
        have HF : Hid (ofE l = 150) := ofE_bad HYm.out hr
        have HBr : Hid (Below w.heap.size w wr) := hJ.out.2.2.1
        clear hr hJ
        go_wp2_with fail
        go_at_call 29
        refine (HRc.out _).mono ?_
        rintro e X ⟨rfl, bx⟩
        have HBx : Hid (Below w.heap.size w X) := HBr.out.trans (bx.mono HBr.out.size)
        clear bx
        go_wp2_with fail
        go_ret2
        exact ⟨HBx.out, .inr ⟨by rw [HF.out]; decide, by rw [HF.out]; rfl⟩⟩
      · rw [hr] at HRc
        have HRn : Hid (∀ z ∈ l.take (i + 1), rtB z = true) := fun z hz => by
          rw [HTk.out] at hz
          rcases List.mem_append.1 hz with hz | hz
          · exact hJ.out.2.2.2.1 z hz
          · rw [List.mem_singleton.1 hz]
            exact hr
        clear hr
        go_wp2_with fail
        go_at_call 29
        refine (HRc.out _).mono ?_
        rintro e X ⟨rfl, bx⟩
        have HBx : Hid (Below w.heap.size w X) := hJ.out.2.2.1.trans (bx.mono hJ.out.2.2.1.size)
        have HSx : Hid (Sd X p (v1, k, v3) M) := hJ.out.1.below bx
        have HMi : Hid (M.length ≤ i) := hJ.out.2.2.2.2.2.2
        have hki : k ≤ i := by rw [← HMk.out]; exact HMi.out
        have HML : Hid ((M.length + 1) * 40 ≤ 140737488355328) := by have := HMi.out; show _ ≤ _; omega
        have Hown : Hid (∀ j, (Value.slice v1 k v3).ownBlock = some j → w.heap.size ≤ j) := hJ.out.2.1
        clear c0 c1 c2 bx
        cases τ
        · have HNd : Hid ((l.take i).Nodup ∧ M = l.take i) := hJ.out.2.2.2.2.2.1 rfl
          clear hJ
          go_wp2_with fail
          go_loopw [5, 7] (fun tv kv wq => ∃ (q : Nat) (τ : Bool), tv = .bool τ ∧ kv = .int .i64 (q : Int) ∧ q ≤ k ∧ Hid ((M.take q).any (fun z => ogD z y) = τ ∧ Below X.heap.size X wq)) (fun _ kv _ => k - (intOf kv).toNat)
          case atStart => exact ⟨0, false, rfl, rfl, by omega, rfl, Below.refl _ _⟩
          case round =>
            obtain ⟨q, τ, rfl, rfl, hq, hK⟩ := hrel
            have HSq : Hid (Sd wr p (v1, k, v3) M) := HSx.out.below hK.out.2
            have dp : wr.cell? ⟨p, 0, none⟩ = some (.slice v1 k v3) := cell_blk HSq.out.hp 0
            have HBq : Hid (Below w.heap.size w wr) := HBx.out.trans (hK.out.2.mono HBx.out.size)
            have HBn : Hid (∀ n', Below X.heap.size X (wr.drewN n')) := fun n' => below_drewN hK.out.2 n'
            by_cases hqk : q < k
            · have a2 : (q : Int) < (k : Int) := by omega
              cases τ
              · have HqL : Hid (q < M.length) := by rw [HMk.out]; exact hqk
                obtain ⟨B1, o1, c1, e1, _, h1⟩ := HSq.out.row.isIn.og q HqL.out
                simp only [sv] at e1
                injection e1 with e11 e12 e13
                clear e12 e13
                subst e11
                obtain ⟨p0, p1, p2⟩ := h1 wr (Below.refl _ _)
                obtain ⟨z, hz⟩ : ∃ z, M[q]'HqL.out = z := ⟨_, rfl⟩
                rw [hz] at p0 p1 p2
                obtain ⟨c0, c1', c2⟩ := HCy.out wr HBq.out
                have hql := eql_og z y
                have HST : Hid ((M.take (q + 1)).any (fun z => ogD z y) = ogD z y) := by
                  show _ = _
                  rw [List.take_succ_eq_append_getElem HqL.out, hz, List.any_append, hK.out.1]
                  simp
                obtain ⟨δ, hδ⟩ : ∃ δ, ogD z y = δ := ⟨_, rfl⟩
                rw [hδ] at hql HST
                clear h1 hz hδ hK
                go_wp2_with fail
                go_quiet (fail)
                go_wp2_with fail
                go_roundw
                case rel => exact ⟨q + 1, δ, by first | rfl | simp, by simp, by omega, HST.out, HBn.out _⟩
                case measure => first | (simp [intOf]; done) | (simp [intOf]; omega)
              · have HNn : Hid (¬ (l.take (i + 1)).Nodup) := by
                  intro hn
                  rw [HTk.out, List.nodup_append] at hn
                  have h1 : y ∈ M := List.mem_of_mem_take (mem_any.1 hK.out.1)
                  rw [HNd.out.2] at h1
                  exact hn.2.2 y h1 y (by simp) rfl
                clear hK
                go_wp2_with fail
                go_roundw
                case rel => exact ⟨i + 1, true, (v1, k, v3), M, rfl, by simp, by omega, HSq.out, Hown.out, HBq.out, HRn.out, fun _ => HNn.out, fun h => (by cases h), by have := HMi.out; omega⟩
                case measure => first | (simp [intOf]; done) | (simp [intOf]; omega)
            · obtain rfl : k = q := by omega
              have a2 : ¬ (k : Int) < (k : Int) := by omega
              have HAll : Hid (M.any (fun z => ogD z y) = τ) := by have := hK.out.1; rw [← HMk.out, List.take_length] at this; exact this
              clear hK
              cases τ
              · have HNn : Hid ((l.take (i + 1)).Nodup ∧ M ++ [y] = l.take (i + 1)) := by
                  refine ⟨?_, by rw [HTk.out, HNd.out.2]⟩
                  rw [HTk.out, List.nodup_append]
                  refine ⟨HNd.out.1, by simp, fun a ha b hb e => ?_⟩
                  rw [List.mem_singleton.1 hb] at e
                  rw [← HNd.out.2, e] at ha
                  rw [mem_any.2 ha] at HAll
                  cases HAll.out
                have hS : Hid (∀ V, Below w.heap.size w V → V.cell? ⟨Bk, off + i * 3, none⟩ = some (.string y.s) ∧ V.cell? ⟨Bk, off + i * 3 + 1, none⟩ = some (.string y.h) ∧ V.cell? ⟨Bk, off + i * 3 + 2, none⟩ = some (.int .i64 y.p)) := fun V hV => HCy.out V hV
                have hIW : Below w.heap.size w wr.drew := (HBq.out).drew
                have sdW : Sd wr.drew p (v1, k, v3) M := HSq.out.below (Below.refl _ _).drew
                go_wp2_with fail
                refine wp_region_held_drew (S := (fun V => V.cell? ⟨Bk, off + i * 3, none⟩ = some (.string y.s) ∧ V.cell? ⟨Bk, off + i * 3 + 1, none⟩ = some (.string y.h) ∧ V.cell? ⟨Bk, off + i * 3 + 2, none⟩ = some (.int .i64 y.p))) (by kernel_rfl) (hS.out _ hIW) (fun hHeld => ?_)
                generalize hWg : World.drew _ = W at hIW hHeld sdW ⊢
                clear hWg
                refine wpAnyH_take (i := 0) (oi := { dst := some 49, op := Op.move (Operand.tmp 4), type := 46, pos := "ref.go:151", after := #[], guard := none }) (v := ?vv1) rfl (by kernel_rfl) (by kernel_rfl) (by kernel_rfl) (fun _ _ _ h => h) (Or.inl ⟨by rfl, ?hy1⟩) (by assumption) ?_
                case hy1 => (intro w hSw; (try dsimp only at hSw); go_simp; all_goals with_reducible rfl)
                try simp only [Act.put, List.setIfInBounds_toArray, List.set_cons_zero, List.set_cons_succ]
                refine wpAnyH_take (i := 1) (oi := { dst := some 50, op := Op.move (Operand.tmp 4), type := 46, pos := "ref.go:151", after := #[], guard := none }) (v := ?vv2) rfl (by kernel_rfl) (by kernel_rfl) (by kernel_rfl) (fun _ _ _ h => h) (Or.inl ⟨by rfl, ?hy2⟩) (by assumption) ?_
                case hy2 => (intro w hSw; (try dsimp only at hSw); go_simp; all_goals with_reducible rfl)
                try simp only [Act.put, List.setIfInBounds_toArray, List.set_cons_zero, List.set_cons_succ]
                refine wpAnyH_take (i := 2) (oi := { dst := some 51, op := Op.nilCheck (Operand.tmp 50), type := 0, pos := "ref.go:151", after := #[{ on := 1, ground := Ground.data }], guard := none }) (v := ?vv3) rfl (by kernel_rfl) (by kernel_rfl) (by kernel_rfl) (fun _ _ _ h => h) (Or.inl ⟨by rfl, ?hy3⟩) (by assumption) ?_
                case hy3 => (intro w hSw; (try dsimp only at hSw); go_simp; all_goals with_reducible rfl)
                try simp only [Act.put, List.setIfInBounds_toArray, List.set_cons_zero, List.set_cons_succ]
                refine wpAnyH_take (i := 3) (oi := { dst := some 52, op := Op.fieldAddr 65 (Operand.tmp 51) 0, type := 0, pos := "ref.go:151", after := #[{ on := 2, ground := Ground.data }], guard := none }) (v := ?vv4) rfl (by kernel_rfl) (by kernel_rfl) (by kernel_rfl) (fun _ _ _ h => h) (Or.inl ⟨by rfl, ?hy4⟩) (by assumption) ?_
                case hy4 => (intro w hSw; (try dsimp only at hSw); go_simp; all_goals with_reducible rfl)
                try simp only [Act.put, List.setIfInBounds_toArray, List.set_cons_zero, List.set_cons_succ]
                refine wpAnyH_take (i := 5) (oi := { dst := some 54, op := Op.move (Operand.tmp 0), type := 35, pos := "ref.go:151", after := #[], guard := none }) (v := ?vv5) rfl (by kernel_rfl) (by kernel_rfl) (by kernel_rfl) (fun _ _ _ h => h) (Or.inl ⟨by rfl, ?hy5⟩) (by assumption) ?_
                case hy5 => (intro w hSw; (try dsimp only at hSw); go_simp; all_goals with_reducible rfl)
                try simp only [Act.put, List.setIfInBounds_toArray, List.set_cons_zero, List.set_cons_succ]
                refine wpAnyH_take (i := 6) (oi := { dst := some 55, op := Op.move (Operand.tmp 6), type := 3, pos := "ref.go:151", after := #[], guard := none }) (v := ?vv6) rfl (by kernel_rfl) (by kernel_rfl) (by kernel_rfl) (fun _ _ _ h => h) (Or.inl ⟨by rfl, ?hy6⟩) (by assumption) ?_
                case hy6 => (intro w hSw; (try dsimp only at hSw); go_simp; all_goals with_reducible rfl)
                try simp only [Act.put, List.setIfInBounds_toArray, List.set_cons_zero, List.set_cons_succ]
                refine wpAnyH_take (i := 7) (oi := { dst := some 56, op := Op.indexAddr 35 (Operand.tmp 54) (Operand.tmp 55), type := 0, pos := "ref.go:151", after := #[{ on := 5, ground := Ground.data }, { on := 6, ground := Ground.data }], guard := none }) (v := ?vv7) rfl (by kernel_rfl) (by kernel_rfl) (by kernel_rfl) (fun _ _ _ h => h) (Or.inl ⟨by rfl, ?hy7⟩) (by assumption) ?_
                case hy7 => (intro w hSw; (try dsimp only at hSw); go_simp; all_goals with_reducible rfl)
                try simp only [Act.put, List.setIfInBounds_toArray, List.set_cons_zero, List.set_cons_succ]
                refine wpAnyH_take (i := 8) (oi := { dst := some 57, op := Op.load 23 (Operand.tmp 56), type := 23, pos := "ref.go:151", after := #[{ on := 7, ground := Ground.data }], guard := none }) (v := ?vv8) rfl (by kernel_rfl) (by kernel_rfl) (by kernel_rfl) (fun _ _ _ h => h) (Or.inl ⟨by rfl, ?hy8⟩) (by assumption) ?_
                case hy8 => (intro w hSw; (try dsimp only at hSw); go_simp; all_goals with_reducible rfl)
                try simp only [Act.put, List.setIfInBounds_toArray, List.set_cons_zero, List.set_cons_succ]
                refine wpAnyH_ready (rs := [4, 9]) (by kernel_rfl) (by simp) ?_
                refine AllReadyH.cons (o := { dst := some 53, op := Op.load 35 (Operand.tmp 52), type := 35, pos := "ref.go:151", after := #[{ on := 3, ground := Ground.data }], guard := none }) rfl (fun K hK => ?_) ?_
                · have hcg : W.cell? ⟨p, 0, none⟩ = some (.slice v1 k v3) := cell_blk ((sdW).hp) 0
                  go_simp
                  refine hK.out _ _ (hS.out _ hIW) (fun hHeld => ?_)
                  clear hK K hcg
                  try simp only [Act.put, List.setIfInBounds_toArray, List.set_cons_zero, List.set_cons_succ]
                  refine wpAnyH_ready (rs := [9]) (by kernel_rfl) (by simp) ?_
                  refine AllReadyH.cons (o := { dst := some 58, op := Op.buildSlice 35 1 #[(0, Operand.tmp 57)], type := 35, pos := "ref.go:151", after := #[{ on := 8, ground := Ground.data }], guard := none }) rfl (fun K hK => ?_) AllReadyH.nil
                  obtain ⟨Wxx, hV9⟩ : ∃ V, W.alloc (.cells #[.string y.s, .string y.h, .int .i64 y.p] 23) = V := ⟨_, rfl⟩
                  have hWxx : Below w.heap.size w Wxx := by rw [← hV9]; exact hIW.trans ((bel1 _ _).mono hIW.size)
                  have sdWxx : Sd Wxx p (v1, k, v3) M := by rw [← hV9]; exact (sdW).below (bel1 _ _)
                  obtain ⟨eb, ec, w9, hrun, e2, e3⟩ := app okO Wxx (.slice v1 k v3) M sdWxx.row (.slice (some ⟨W.heap.size, 0, none⟩) 1 1) [y] (by rw [← hV9]; exact in_one (x := y) _ _ #[.string y.s, .string y.h, .int .i64 y.p] 23 (0, 0) (by rw [heap_al, if_pos rfl]) rfl) (by rw [List.length_singleton]; exact HML.out)
                  have el : M.length + [y].length = k + 1 := by rw [HMk.out]; rfl
                  rw [el] at hrun e2 e3
                  have h9 : Below w.heap.size w w9 := hWxx.trans (e3.belowB hWxx.size (fun j hj => Hown.out j hj))
                  have hp9 : w9.heap[p]? = some (.cells #[.slice v1 k v3] 65 (0, 0)) := by
                    rw [e3.block p (heap_lt sdWxx.hp) (fun e => sdWxx.ne p e rfl)]
                    exact sdWxx.hp
                  have HEn : Hid (R EO w9 (.slice eb (k + 1) ec) (M ++ [y]) ∧ (∀ j, (Value.slice eb (k + 1) ec).ownBlock = some j → w.heap.size ≤ j ∧ j ≠ p)) := ⟨e2, fun j hj => by
                    rcases e3.own j hj with e | e
                    · exact ⟨Hown.out j e, sdWxx.ne j e⟩
                    · have := heap_lt sdWxx.hp
                      have := hWxx.size
                      omega⟩
                  clear e2 e3 el
                  go_simp
                  go_wp2_with fail
                  refine hK.out _ _ (hS.out _ hWxx) (fun hHeld => ?_)
                  clear hK K hV9
                  try simp only [Act.put, List.setIfInBounds_toArray, List.set_cons_zero, List.set_cons_succ]
                  refine wpAnyH_ready (rs := [10]) (by kernel_rfl) (by simp) ?_
                  refine AllReadyH.cons (o := { dst := some 59, op := Op.call { callee := Callee.builtin Builtin.append, args := #[Operand.tmp 53, Operand.tmp 58], argTypes := #[35, 35] }, type := 35, pos := "ref.go:151", after := #[{ on := 4, ground := Ground.data }, { on := 9, ground := Ground.data }], guard := none }) rfl (fun K hK => ?_) AllReadyH.nil
                  refine step_append_run rfl (.tmp 53) (.tmp 58) 35 35 rfl hrun (by first | rfl | simp [Act.eval, Act.put]) (by first | rfl | simp [Act.eval, Act.put]) ?_
                  refine hK.out _ _ (hS.out _ h9) (fun hHeld => ?_)
                  clear hK K hrun
                  try simp only [Act.put, List.setIfInBounds_toArray, List.set_cons_zero, List.set_cons_succ]
                  refine wpAnyH_take (i := 11) (oi := { dst := some 60, op := Op.nilCheck (Operand.tmp 49), type := 0, pos := "ref.go:151", after := #[{ on := 0, ground := Ground.data }, { on := 0, ground := Ground.phase }, { on := 1, ground := Ground.phase }, { on := 2, ground := Ground.phase }, { on := 3, ground := Ground.phase }, { on := 4, ground := Ground.phase }, { on := 5, ground := Ground.phase }, { on := 6, ground := Ground.phase }, { on := 7, ground := Ground.phase }, { on := 8, ground := Ground.phase }, { on := 9, ground := Ground.phase }, { on := 10, ground := Ground.phase }], guard := none }) (v := ?vv9) rfl (by kernel_rfl) (by kernel_rfl) (by kernel_rfl) (fun _ _ _ h => h) (Or.inl ⟨by rfl, ?hy9⟩) (by assumption) ?_
                  case hy9 => (intro w hSw; (try dsimp only at hSw); go_simp; all_goals with_reducible rfl)
                  try simp only [Act.put, List.setIfInBounds_toArray, List.set_cons_zero, List.set_cons_succ]
                  refine wpAnyH_take (i := 12) (oi := { dst := some 61, op := Op.fieldAddr 65 (Operand.tmp 60) 0, type := 0, pos := "ref.go:151", after := #[{ on := 11, ground := Ground.data }, { on := 0, ground := Ground.phase }, { on := 1, ground := Ground.phase }, { on := 2, ground := Ground.phase }, { on := 3, ground := Ground.phase }, { on := 4, ground := Ground.phase }, { on := 5, ground := Ground.phase }, { on := 6, ground := Ground.phase }, { on := 7, ground := Ground.phase }, { on := 8, ground := Ground.phase }, { on := 9, ground := Ground.phase }, { on := 10, ground := Ground.phase }], guard := none }) (v := ?vv10) rfl (by kernel_rfl) (by kernel_rfl) (by kernel_rfl) (fun _ _ _ h => h) (Or.inl ⟨by rfl, ?hy10⟩) (by assumption) ?_
                  case hy10 => (intro w hSw; (try dsimp only at hSw); go_simp; all_goals with_reducible rfl)
                  try simp only [Act.put, List.setIfInBounds_toArray, List.set_cons_zero, List.set_cons_succ]
                  refine wpAnyH_ready (rs := [13]) (by kernel_rfl) (by simp) ?_
                  refine AllReadyH.cons (o := { dst := none, op := Op.store 35 (Operand.tmp 61) (Operand.tmp 59), type := 0, pos := "ref.go:151", after := #[{ on := 12, ground := Ground.data }, { on := 10, ground := Ground.data }, { on := 10, ground := Ground.chain }, { on := 0, ground := Ground.phase }, { on := 1, ground := Ground.phase }, { on := 2, ground := Ground.phase }, { on := 3, ground := Ground.phase }, { on := 4, ground := Ground.phase }, { on := 5, ground := Ground.phase }, { on := 6, ground := Ground.phase }, { on := 7, ground := Ground.phase }, { on := 8, ground := Ground.phase }, { on := 9, ground := Ground.phase }, { on := 10, ground := Ground.phase }], guard := none }) rfl (fun K hK => ?_) AllReadyH.nil
                  have f0 := cell_blk hp9 0
                  have f1 := frozen_blk hp9 0
                  have hZ : Below w.heap.size w (w9.setCell ⟨p, 0, none⟩ (.slice eb (k + 1) ec)) := h9.setCell (p := ⟨p, 0, none⟩) Hwp.out _
                  have HSdZ : Hid (Sd (w9.setCell ⟨p, 0, none⟩ (.slice eb (k + 1) ec)) p (eb, k + 1, ec) (M ++ [y])) := ⟨by
                    rw [setCell_block _ _ _ _ _ _ _ hp9]
                    rfl, HEn.out.1.stays fun j hj _ => setCell_other _ _ _ _ _ (HEn.out.2 j hj).2, fun j hj => (HEn.out.2 j hj).2⟩
                  have HZ : Hid (Below w.heap.size w (w9.setCell ⟨p, 0, none⟩ (.slice eb (k + 1) ec))) := hZ
                  have HSZ := hS.out _ hZ
                  simp at f0
                  go_simp
                  go_wp2_with fail
                  refine hK.out _ _ HSZ (fun hHeld => ?_)
                  clear hK K f0 f1 hZ HSZ
                  try simp only [Act.put, List.setIfInBounds_toArray, List.set_cons_zero, List.set_cons_succ]
                  refine wpAnyH_done (by kernel_rfl) ?_ _
                  go_wp2_with fail
                  go_roundw
                  case rel => exact ⟨i + 1, false, (eb, k + 1, ec), M ++ [y], rfl, by simp, by omega, HSdZ.out, fun j hj => (HEn.out.2 j hj).1, HZ.out, HRn.out, fun h => (by cases h), fun _ => HNn.out, by rw [List.length_append]; have := HMi.out; simp; omega⟩
                  case measure => first | (simp [intOf]; done) | (simp [intOf]; omega)
                refine AllReadyH.cons (o := { dst := some 58, op := Op.buildSlice 35 1 #[(0, Operand.tmp 57)], type := 35, pos := "ref.go:151", after := #[{ on := 8, ground := Ground.data }], guard := none }) rfl (fun K hK => ?_) AllReadyH.nil
                obtain ⟨Wx, hV9⟩ : ∃ V, W.alloc (.cells #[.string y.s, .string y.h, .int .i64 y.p] 23) = V := ⟨_, rfl⟩
                have hWx : Below w.heap.size w Wx := by rw [← hV9]; exact hIW.trans ((bel1 _ _).mono hIW.size)
                have sdWx : Sd Wx p (v1, k, v3) M := by rw [← hV9]; exact (sdW).below (bel1 _ _)
                obtain ⟨eb, ec, w9, hrun, e2, e3⟩ := app okO Wx (.slice v1 k v3) M sdWx.row (.slice (some ⟨W.heap.size, 0, none⟩) 1 1) [y] (by rw [← hV9]; exact in_one (x := y) _ _ #[.string y.s, .string y.h, .int .i64 y.p] 23 (0, 0) (by rw [heap_al, if_pos rfl]) rfl) (by rw [List.length_singleton]; exact HML.out)
                have el : M.length + [y].length = k + 1 := by rw [HMk.out]; rfl
                rw [el] at hrun e2 e3
                have h9 : Below w.heap.size w w9 := hWx.trans (e3.belowB hWx.size (fun j hj => Hown.out j hj))
                have hp9 : w9.heap[p]? = some (.cells #[.slice v1 k v3] 65 (0, 0)) := by
                  rw [e3.block p (heap_lt sdWx.hp) (fun e => sdWx.ne p e rfl)]
                  exact sdWx.hp
                have HEn : Hid (R EO w9 (.slice eb (k + 1) ec) (M ++ [y]) ∧ (∀ j, (Value.slice eb (k + 1) ec).ownBlock = some j → w.heap.size ≤ j ∧ j ≠ p)) := ⟨e2, fun j hj => by
                  rcases e3.own j hj with e | e
                  · exact ⟨Hown.out j e, sdWx.ne j e⟩
                  · have := heap_lt sdWx.hp
                    have := hWx.size
                    omega⟩
                clear e2 e3 el
                go_simp
                go_wp2_with fail
                refine hK.out _ _ (hS.out _ hWx) (fun hHeld => ?_)
                clear hK K hV9
                try simp only [Act.put, List.setIfInBounds_toArray, List.set_cons_zero, List.set_cons_succ]
                refine wpAnyH_ready (rs := [4]) (by kernel_rfl) (by simp) ?_
                refine AllReadyH.cons (o := { dst := some 53, op := Op.load 35 (Operand.tmp 52), type := 35, pos := "ref.go:151", after := #[{ on := 3, ground := Ground.data }], guard := none }) rfl (fun K hK => ?_) AllReadyH.nil
                have hcg : Wx.cell? ⟨p, 0, none⟩ = some (.slice v1 k v3) := cell_blk ((sdWx).hp) 0
                go_simp
                refine hK.out _ _ (hS.out _ hWx) (fun hHeld => ?_)
                clear hK K hcg
                try simp only [Act.put, List.setIfInBounds_toArray, List.set_cons_zero, List.set_cons_succ]
                refine wpAnyH_ready (rs := [10]) (by kernel_rfl) (by simp) ?_
                refine AllReadyH.cons (o := { dst := some 59, op := Op.call { callee := Callee.builtin Builtin.append, args := #[Operand.tmp 53, Operand.tmp 58], argTypes := #[35, 35] }, type := 35, pos := "ref.go:151", after := #[{ on := 4, ground := Ground.data }, { on := 9, ground := Ground.data }], guard := none }) rfl (fun K hK => ?_) AllReadyH.nil
                refine step_append_run rfl (.tmp 53) (.tmp 58) 35 35 rfl hrun (by first | rfl | simp [Act.eval, Act.put]) (by first | rfl | simp [Act.eval, Act.put]) ?_
                refine hK.out _ _ (hS.out _ h9) (fun hHeld => ?_)
                clear hK K hrun
                try simp only [Act.put, List.setIfInBounds_toArray, List.set_cons_zero, List.set_cons_succ]
                refine wpAnyH_take (i := 11) (oi := { dst := some 60, op := Op.nilCheck (Operand.tmp 49), type := 0, pos := "ref.go:151", after := #[{ on := 0, ground := Ground.data }, { on := 0, ground := Ground.phase }, { on := 1, ground := Ground.phase }, { on := 2, ground := Ground.phase }, { on := 3, ground := Ground.phase }, { on := 4, ground := Ground.phase }, { on := 5, ground := Ground.phase }, { on := 6, ground := Ground.phase }, { on := 7, ground := Ground.phase }, { on := 8, ground := Ground.phase }, { on := 9, ground := Ground.phase }, { on := 10, ground := Ground.phase }], guard := none }) (v := ?vv11) rfl (by kernel_rfl) (by kernel_rfl) (by kernel_rfl) (fun _ _ _ h => h) (Or.inl ⟨by rfl, ?hy11⟩) (by assumption) ?_
                case hy11 => (intro w hSw; (try dsimp only at hSw); go_simp; all_goals with_reducible rfl)
                try simp only [Act.put, List.setIfInBounds_toArray, List.set_cons_zero, List.set_cons_succ]
                refine wpAnyH_take (i := 12) (oi := { dst := some 61, op := Op.fieldAddr 65 (Operand.tmp 60) 0, type := 0, pos := "ref.go:151", after := #[{ on := 11, ground := Ground.data }, { on := 0, ground := Ground.phase }, { on := 1, ground := Ground.phase }, { on := 2, ground := Ground.phase }, { on := 3, ground := Ground.phase }, { on := 4, ground := Ground.phase }, { on := 5, ground := Ground.phase }, { on := 6, ground := Ground.phase }, { on := 7, ground := Ground.phase }, { on := 8, ground := Ground.phase }, { on := 9, ground := Ground.phase }, { on := 10, ground := Ground.phase }], guard := none }) (v := ?vv12) rfl (by kernel_rfl) (by kernel_rfl) (by kernel_rfl) (fun _ _ _ h => h) (Or.inl ⟨by rfl, ?hy12⟩) (by assumption) ?_
                case hy12 => (intro w hSw; (try dsimp only at hSw); go_simp; all_goals with_reducible rfl)
                try simp only [Act.put, List.setIfInBounds_toArray, List.set_cons_zero, List.set_cons_succ]
                refine wpAnyH_ready (rs := [13]) (by kernel_rfl) (by simp) ?_
                refine AllReadyH.cons (o := { dst := none, op := Op.store 35 (Operand.tmp 61) (Operand.tmp 59), type := 0, pos := "ref.go:151", after := #[{ on := 12, ground := Ground.data }, { on := 10, ground := Ground.data }, { on := 10, ground := Ground.chain }, { on := 0, ground := Ground.phase }, { on := 1, ground := Ground.phase }, { on := 2, ground := Ground.phase }, { on := 3, ground := Ground.phase }, { on := 4, ground := Ground.phase }, { on := 5, ground := Ground.phase }, { on := 6, ground := Ground.phase }, { on := 7, ground := Ground.phase }, { on := 8, ground := Ground.phase }, { on := 9, ground := Ground.phase }, { on := 10, ground := Ground.phase }], guard := none }) rfl (fun K hK => ?_) AllReadyH.nil
                have f0 := cell_blk hp9 0
                have f1 := frozen_blk hp9 0
                have hZ : Below w.heap.size w (w9.setCell ⟨p, 0, none⟩ (.slice eb (k + 1) ec)) := h9.setCell (p := ⟨p, 0, none⟩) Hwp.out _
                have HSdZ : Hid (Sd (w9.setCell ⟨p, 0, none⟩ (.slice eb (k + 1) ec)) p (eb, k + 1, ec) (M ++ [y])) := ⟨by
                  rw [setCell_block _ _ _ _ _ _ _ hp9]
                  rfl, HEn.out.1.stays fun j hj _ => setCell_other _ _ _ _ _ (HEn.out.2 j hj).2, fun j hj => (HEn.out.2 j hj).2⟩
                have HZ : Hid (Below w.heap.size w (w9.setCell ⟨p, 0, none⟩ (.slice eb (k + 1) ec))) := hZ
                have HSZ := hS.out _ hZ
                simp at f0
                go_simp
                go_wp2_with fail
                refine hK.out _ _ HSZ (fun hHeld => ?_)
                clear hK K f0 f1 hZ HSZ
                try simp only [Act.put, List.setIfInBounds_toArray, List.set_cons_zero, List.set_cons_succ]
                refine wpAnyH_done (by kernel_rfl) ?_ _
                go_wp2_with fail
                go_roundw
                case rel => exact ⟨i + 1, false, (eb, k + 1, ec), M ++ [y], rfl, by simp, by omega, HSdZ.out, fun j hj => (HEn.out.2 j hj).1, HZ.out, HRn.out, fun h => (by cases h), fun _ => HNn.out, by rw [List.length_append]; have := HMi.out; simp; omega⟩
                case measure => first | (simp [intOf]; done) | (simp [intOf]; omega)
              · have HNn : Hid (¬ (l.take (i + 1)).Nodup) := by
                  intro hn
                  rw [HTk.out, List.nodup_append] at hn
                  have h1 : y ∈ M := mem_any.1 HAll.out
                  rw [HNd.out.2] at h1
                  exact hn.2.2 y h1 y (by simp) rfl
                go_wp2_with fail
                go_roundw
                case rel => exact ⟨i + 1, true, (v1, k, v3), M, rfl, by simp, by omega, HSq.out, Hown.out, HBq.out, HRn.out, fun _ => HNn.out, fun h => (by cases h), by have := HMi.out; omega⟩
                case measure => first | (simp [intOf]; done) | (simp [intOf]; omega)
        · have HNn : Hid (¬ (l.take (i + 1)).Nodup) := by
            intro hn
            rw [HTk.out, List.nodup_append] at hn
            exact hJ.out.2.2.2.2.1 rfl hn.1
          have dp : X.cell? ⟨p, 0, none⟩ = some (.slice v1 k v3) := cell_blk HSx.out.hp 0
          clear hJ
          go_wp2_with fail
          go_loopw [5, 7] (fun tv kv wq => tv = .bool true ∧ kv = .int .i64 0 ∧ wq = X) (fun _ _ _ => 0)
          case atStart => exact ⟨rfl, rfl, rfl⟩
          case round =>
            obtain ⟨rfl, rfl, hw⟩ := hrel
            rw [hw]
            by_cases hk0 : 0 < k
            · have a2 : (0 : Int) < (k : Int) := by omega
              go_wp2_with fail
              go_roundw
              case rel => exact ⟨i + 1, true, (v1, k, v3), M, rfl, by simp, by omega, HSx.out, Hown.out, HBx.out, HRn.out, fun _ => HNn.out, fun h => (by cases h), by have := HMi.out; omega⟩
              case measure => first | (simp [intOf]; done) | (simp [intOf]; omega)
            · have a2 : ¬ (0 : Int) < (k : Int) := by omega
              go_wp2_with fail
              go_roundw
              case rel => exact ⟨i + 1, true, (v1, k, v3), M, rfl, by simp, by omega, HSx.out, Hown.out, HBx.out, HRn.out, fun _ => HNn.out, fun h => (by cases h), by have := HMi.out; omega⟩
              case measure => first | (simp [intOf]; done) | (simp [intOf]; omega)
    · obtain rfl : i = l.length := by omega
      have a1 : ¬ (l.length : Int) < (l.length : Int) := by omega
      have HRt : Hid (∀ z ∈ l, rtB z = true) := by have := hJ.out.2.2.2.1; rw [List.take_length] at this; exact this
      have HBr : Hid (Below w.heap.size w wr) := hJ.out.2.2.1
      cases τ
      · have HNd : Hid (l.Nodup ∧ M = l) := by have := hJ.out.2.2.2.2.2.1 rfl; rw [List.take_length] at this; exact this
        have HSl : Hid (Sd wr p (v1, k, v3) l ∧ ∀ j, (Value.slice v1 k v3).ownBlock = some j → w.heap.size ≤ j) := ⟨by have := hJ.out.1; rw [HNd.out.2] at this; exact this, hJ.out.2.1⟩
        clear hJ
        by_cases h16 : l.length ≤ 16
        · have h16' : ¬ (l.length : Int) > 16 := by omega
          have HF : Hid (ofE l = 0) := ofE_ok ⟨HRt.out, HNd.out.1, h16⟩
          clear h16
          go_wp2_with fail
          go_ret2
          exact ⟨HBr.out, .inl ⟨HF.out, p, (v1, k, v3), rfl, HSl.out.1, Hwp.out, HSl.out.2⟩⟩
        · have h16' : (l.length : Int) > 16 := by omega
          have HF : Hid (ofE l = 6) := ofE_full HRt.out HNd.out.1 h16
          clear h16
          go_wp2_with fail
          go_ret2
          exact ⟨HBr.out, .inr ⟨by rw [HF.out]; decide, by rw [HF.out]; rfl⟩⟩
      · have HF : Hid (ofE l = 7) := ofE_twice HRt.out (by have := hJ.out.2.2.2.2.1 rfl; rw [List.take_length] at this; exact this)
        clear hJ
        go_wp2_with fail
        go_ret2
        exact ⟨HBr.out, .inr ⟨by rw [HF.out]; decide, by rw [HF.out]; rfl⟩⟩
end Go.Proofs.YtbifmikndpeafaaDoor
