/- Itoa, WriteResponse. -/
import Derived.Test.YtcadlpmopplkeaaDoorAe
import Derived.Lib.LaidTab
import Derived.Deep.RegionLaw
namespace Go.Proofs.YtcadlpmopplkeaaDoor
open Go.RowKit Go.Maps
set_option linter.unusedVariables false
set_option linter.unusedSimpArgs false

/-- the table that Itoa reads -/
def Tab (w : World) : Prop := Lib.TabIs Tryd.prog w "internal/strconv.uint64pow10" .u64 Lib.pow10Tab
theorem gTab : Tryd.prog.globalNamed "internal/strconv.uint64pow10" = some 0 := by kernel_rfl
theorem Tab.below {w w' : World} (h : Tab w) (hb : Below w.heap.size w w') : Tab w' := by
  unfold Tab Lib.TabIs World.var? at h ⊢
  rw [gTab, Option.bind_some] at h ⊢
  cases hg : w.heap[0]? with
  | none => rw [hg] at h; cases h
  | some o =>
    rw [(hb.block 0 (heap_lt hg)), hg]
    rw [hg] at h
    exact h
theorem grow_below (w : World) (os : Array Obj) : Below w.heap.size w (Go.Sort.grow w os) :=
  ⟨rfl, rfl, rfl, by simp [Go.Sort.grow], fun k hk => by simp [Go.Sort.grow, Array.getElem?_append, hk]⟩
def itoaS (n : Int) : ByteArray := ⟨(Lib.itoa n).toArray⟩
theorem itoa_any (n : Int) (h0 : -9223372036854775808 ≤ n) (h1 : n ≤ 9223372036854775807) (w : World) (ht : Tab w) : Calls Tryd.prog 9 #[.int .i64 n] w fun e w' => e = .returned (.string (itoaS n)) ∧ Below w.heap.size w w' := by
  refine (Tryd.strconv_Itoa n h0 h1 w ht).mono ?_
  rintro e w' ⟨rfl, k, os, rfl⟩
  exact ⟨rfl, (below_drewN (Below.refl _ w) k).trans (show Below w.heap.size (w.drewN k) _ from grow_below (w.drewN k) os)⟩

def szL (l : List Fd) : Int := l.foldl (fun n f => n + ((f.n.size : Int) + (f.v.size : Int) + 32)) 0
theorem szL_succ (l : List Fd) (k : Nat) (h : k < l.length) : szL (l.take (k + 1)) = szL (l.take k) + ((l[k].n.size : Int) + (l[k].v.size : Int) + 32) := by
  unfold szL
  rw [List.take_succ_eq_append_getElem h, List.foldl_append]
  rfl
def statusName : ByteArray := ⟨#[58, 115, 116, 97, 116, 117, 115]⟩
def wrL (n : Int) (l : List Fd) : List Fd := ⟨statusName, itoaS n, false⟩ :: l
def WsPost (n : Int) (l : List Fd) (w : World) (e : Ending) (w' : World) : Prop :=
  ∃ y : SV, e = .returned (.tuple #[sv y, .int .i64 (rsE (wrL n l))]) ∧ Below w.heap.size w w' ∧ (rsE (wrL n l) = 0 → R EFd w' (sv y) (wrL n l) ∧ ∀ k, (sv y).ownBlock = some k → w.heap.size ≤ k) ∧ (rsE (wrL n l) ≠ 0 → y = (none, 0, 0))
set_option maxHeartbeats 8000000 in
set_option maxRecDepth 100000 in
theorem writeResponse_any (n : Int) (h0 : -9223372036854775808 ≤ n) (h1 : n ≤ 9223372036854775807) (f : SV) (b : ByteArray) (l : List Fd) (w : World) (ht : Tab w) (hI : In EFd w (sv f) l) (hz : ∀ f ∈ l, f.n.size ≤ 140737488355328) (hlen : (1 + l.length) * 40 ≤ 140737488355328) :
    Calls Tryd.prog 30 #[.agg (rsv n (sv f) b)] w fun e w' => WsPost n l w e w' := by
  obtain ⟨fb, fl, fc⟩ := f
  have F0 : RsB (w.alloc (.cells (rsv n (sv (fb, fl, fc)) b) 37)) w.heap.size n (sv (fb, fl, fc)) b := by unfold RsB; rw [heap_al, if_pos rfl]
  have B0 := bel1 w (.cells (rsv n (sv (fb, fl, fc)) b) 37)
  have efl : fl = l.length := by obtain ⟨_, _, e, _⟩ := hI.slice; simp only [sv] at e; injection e
  have hcl : Hid (∀ W, Below (w.alloc (.cells (rsv n (sv (fb, fl, fc)) b) 37)).heap.size (w.alloc (.cells (rsv n (sv (fb, fl, fc)) b) 37)) W → Calls Tryd.prog 9 #[.int .i64 n] W fun e w6 => e = .returned (.string (itoaS n)) ∧ w6.cell? ⟨w.heap.size, 1, none⟩ = some (sv (fb, fl, fc)) ∧ w.heap.size < w6.heap.size ∧ ∃ base cap w7, Hid ((Builtin.append_ #[35, 35] 35 #[.slice (some ⟨w6.heap.size, 0, none⟩) 1 1, sv (fb, fl, fc)]).run Tryd.prog (w6.alloc (.cells #[.string statusName, .string (itoaS n), .bool false] 44)) = .ok (.slice base (1 + l.length) cap) w7) ∧ Hid (R EFd w7 (.slice base (1 + l.length) cap) (wrL n l) ∧ Below w.heap.size w w7 ∧ ∀ k, (Value.slice base (1 + l.length) cap).ownBlock = some k → w.heap.size ≤ k)) := fun W hb => by
    have hw := B0.trans (hb.mono B0.size)
    refine (itoa_any n h0 h1 W (ht.below hw)).mono ?_
    rintro e w6 ⟨rfl, hb'⟩
    have hb6 := hb.trans (hb'.mono hb.size)
    have hw6 := hw.trans (hb'.mono hw.size)
    have hrow : R EFd (w6.alloc (.cells #[.string statusName, .string (itoaS n), .bool false] 44)) (.slice (some ⟨w6.heap.size, 0, none⟩) 1 1) [⟨statusName, itoaS n, false⟩] := R.one okFd _ (by rw [heap_al, if_pos rfl]; rfl) rfl
    have hba := bel1 w6 (.cells #[.string statusName, .string (itoaS n), .bool false] 44)
    obtain ⟨base, cap, w7, g1, g2, g3⟩ := app okFd _ _ _ hrow _ _ ((hI.below hw6).below hba) (by simpa [EFd] using hlen)
    have hw7 := hw6.trans (hba.mono hw6.size)
    refine ⟨rfl, cell_blk ((hb6.block _ (heap_lt F0)).trans F0) 1, heap_lt ((hb6.block _ (heap_lt F0)).trans F0), base, cap, w7, g1, g2, hw7.trans (g3.belowB hw7.size fun k hk => ?_), fun k hk => ?_⟩
    · simp [Value.ownBlock] at hk
      have := hw6.size
      omega
    · rcases g3.own k hk with e | e
      · simp [Value.ownBlock] at e
        have := hw6.size
        omega
      · exact Nat.le_trans hw7.size e
  have hRd : Hid (∀ W s, In EFd W (sv s) (wrL n l) → Calls Tryd.prog 49 #[sv s] W fun e w' => RsPost (wrL n l) W e w') := fun W s hs => readResponse_any s (wrL n l) W hs fun f hf => by
    unfold wrL at hf
    rcases List.mem_cons.1 hf with rfl | hf
    · show statusName.size ≤ _; decide
    · exact hz f hf
  obtain ⟨I, hII⟩ : ∃ I, itoaS n = I := ⟨_, rfl⟩
  rw [hII] at hcl
  unfold statusName at hcl
  simp only [sv] at hcl F0 ⊢
  unfold rsv at hcl F0 ⊢
  obtain ⟨c0, c1, c2⟩ : (w.alloc (.cells #[.int .i64 n, .slice fb fl fc, .string b] 37)).cell? ⟨w.heap.size, 0, none⟩ = some (.int .i64 n) ∧ (w.alloc (.cells #[.int .i64 n, .slice fb fl fc, .string b] 37)).cell? ⟨w.heap.size, 1, none⟩ = some (.slice fb fl fc) ∧ (w.alloc (.cells #[.int .i64 n, .slice fb fl fc, .string b] 37)).cell? ⟨w.heap.size, 2, none⟩ = some (.string b) := ⟨cell_blk F0 0, cell_blk F0 1, cell_blk F0 2⟩
  clear hII ht hI hz hlen F0 B0 efl
  go_enter Tryd.func30, Tryd.ntmps30
  go_upto_region 1 with fail
  go_region_law (first | (refine step_value 9 _ _ rfl ?_; go_simp; go_wp2_with (go_at_call 9; refine (hcl.out _ (by (repeat (first | exact Below.refl _ _ | refine Below.drew ?_ | refine below_drewN ?_ _ | refine Below.alloc ?_ (by first | exact Nat.le_refl _ | (simp only [size_al, size_dr]; omega)) _)))).mono ?_; rintro e' w6 ⟨rfl, d2, d3, base', cap', w7, hrun, S7⟩)) | (refine step_append_run rfl (.tmp 11) (.tmp 13) 35 35 rfl hrun.out (by simp [Act.eval]) (by simp [Act.eval]) ?_))
  all_goals
    go_wp2_with fail
    go_at_call 49
    refine (hRd.out w7 (base', 1 + l.length, cap') (R.isIn S7.out.1)).mono ?_
    rintro e w8 ⟨N, ⟨yb, yl, yc⟩, rfl, hb8, r1, r2⟩
    have HW : Hid (∀ o, Below w.heap.size w (w8.alloc o) ∧ R EFd (w8.alloc o) (.slice base' (1 + l.length) cap') (wrL n l)) := fun o => ⟨(S7.out.2.1.trans (hb8.mono S7.out.2.1.size)).trans ((bel1 w8 o).mono (Nat.le_trans S7.out.2.1.size hb8.size)), (R.below S7.out.1 hb8).below (bel1 w8 o)⟩
    have HO : Hid (∀ k, (Value.slice base' (1 + l.length) cap').ownBlock = some k → w.heap.size ≤ k) := S7.out.2.2
    obtain ⟨E, hE⟩ : ∃ E, rsE (wrL n l) = E := ⟨_, rfl⟩
    rw [hE]
    have HE : Hid (rsE (wrL n l) = E) := hE
    clear r1 r2 hE hb8 S7 hrun hcl hRd
    simp only [sv, rsv]
    by_cases h0 : E = 0
    · subst h0
      go_wp2_with fail
      go_ret2
      exact ⟨(base', 1 + l.length, cap'), by rw [HE.out]; rfl, (HW.out _).1, fun _ => ⟨(HW.out _).2, HO.out⟩, fun h => absurd HE.out h⟩
    · have h0' : (E != 0) = true := by simp [h0]
      have H0 : Hid (E ≠ 0) := h0
      clear h0
      go_wp2_with fail
      go_ret2
      exact ⟨(none, 0, 0), by rw [HE.out]; rfl, (HW.out _).1, fun h => absurd (HE.out.symm.trans h) H0.out, fun _ => rfl⟩
end Go.Proofs.YtcadlpmopplkeaaDoor
