/- Values. -/
import Derived.Test.YtcadlpmopplkeaaDoorAe
import Derived.Test.YtcadlpmopplkeaaDoorM2
namespace Go.Proofs.YtcadlpmopplkeaaDoor
open Go.RowKit
set_option linter.unusedVariables false
set_option linter.unusedSimpArgs false
theorem ba_eq {a b : ByteArray} (h : a.data.toList = b.data.toList) : a = b := by
  cases a; cases b; simp only at h; congr 1; exact Array.toList_inj.1 h
def vsL (l : List Fd) (s : ByteArray) : List ByteArray := l.filterMap fun f => if f.n = s then some f.v else none
theorem vsL_succ (l : List Fd) (s : ByteArray) (k : Nat) (h : k < l.length) : vsL (l.take (k + 1)) s = vsL (l.take k) s ++ (if l[k].n = s then [l[k].v] else []) := by
  unfold vsL
  rw [List.take_succ_eq_append_getElem h, List.filterMap_append]
  congr 1
  by_cases he : l[k].n = s <;> simp [List.filterMap_cons, he]
theorem vsL_le (l : List Fd) (s : ByteArray) : (vsL l s).length ≤ l.length := List.length_filterMap_le _ _
theorem str_eq {a b : ByteArray} (h : a = b) : (a.toList == b.toList) = true := by simp [h]
theorem str_ne {a b : ByteArray} (h : a ≠ b) : (a.toList == b.toList) = false := by
  rw [beq_eq_false_iff_ne]
  intro e
  rw [ByteArray.toList_eq, ByteArray.toList_eq] at e
  exact h (ba_eq e)

/-- a row of one's own, made since w -/
def VsPost (vs : List ByteArray) (w : World) (e : Ending) (w' : World) : Prop :=
  ∃ y : SV, e = .returned (sv y) ∧ Below w.heap.size w w' ∧ R ES w' (sv y) vs ∧ ∀ k, (sv y).ownBlock = some k → w.heap.size ≤ k
set_option maxHeartbeats 8000000 in
set_option maxRecDepth 100000 in
theorem values_any (s : SV) (l : List Fd) (name : ByteArray) (w : World) (hI : In EFd w (sv s) l) (hlen : l.length * 40 ≤ 140737488355328) :
    Calls Tryd.prog 31 #[sv s, .string name] w fun e w' => VsPost (vsL l name) w e w' := by
  have HI : Hid (In EFd w (sv s) l) := hI
  obtain ⟨sb, sl, sc⟩ := s
  have es : sl = l.length := by obtain ⟨_, _, e, _⟩ := hI.slice; simp only [sv] at e; injection e
  have hcap : l.length ≤ sc ∧ sc ≤ 9223372036854775807 := by obtain ⟨_, _, e, q1, q2⟩ := hI.slice; simp only [sv] at e; injection e with _ _ e; subst e; exact ⟨q1, q2⟩
  subst es
  simp only [sv] at HI ⊢
  obtain ⟨hcap1, hcap2⟩ := hcap
  clear hI
  go_enter Tryd.func31, Tryd.ntmps31
  go_wp2_with fail
  go_loopw [5, 7, 10] (fun vv _ kv wr => ∃ (k : Nat) (vb : Option Addr) (vn vc : Nat), kv = .int .i64 (k : Int) ∧ k ≤ l.length ∧ vv = .slice vb vn vc ∧ Hid (R ES wr (.slice vb vn vc) (vsL (l.take k) name) ∧ (∀ i, (Value.slice vb vn vc).ownBlock = some i → w.heap.size ≤ i) ∧ vn = (vsL (l.take k) name).length ∧ Below w.heap.size w wr)) (fun _ _ kv _ => l.length - (intOf kv).toNat)
  case atStart => exact ⟨0, none, 0, 0, rfl, by omega, rfl, by simp [vsL]; exact R.nil _ _, fun i hi => by simp [Value.ownBlock] at hi, by simp [vsL], Below.refl _ _⟩
  case round =>
    obtain ⟨k, vb, vn, vc, rfl, hk, rfl, hv⟩ := hrel
    by_cases hlt : k < l.length
    · obtain ⟨Bk, off, cap, e, hc⟩ := HI.out.fd k hlt
      injection e with e1 e2 e3
      subst e1
      clear e2 e3
      obtain ⟨c0, c1, c2⟩ := hc wr hv.out.2.2.2
      have hlt' : (k : Int) < (l.length : Int) := by omega
      by_cases hn : l[k].n = name
      · have hvs : Hid (vsL (l.take (k + 1)) name = vsL (l.take k) name ++ [l[k].v]) := by show _ = _; rw [vsL_succ l name k hlt, if_pos hn]
        have hb : (l[k].n.toList == name.toList) = true := str_eq hn
        clear hn
        obtain ⟨x, hx⟩ : ∃ x, l[k] = x := ⟨_, rfl⟩
        rw [hx] at c0 c1 c2 hb hvs
        obtain ⟨r1, r2, r3, r4⟩ := hv.out
        have hin : In ES ((wr.alloc (.cells #[.string x.n, .string x.v, .bool x.nv] 44)).alloc (.cells #[.string x.v] 9)) (.slice (some ⟨wr.heap.size + 1, 0, none⟩) 1 1) [x.v] := in_one _ _ _ #[.string x.v] 9 (0, 0) (fresh2 _ _ _) rfl
        have hle : (vsL (l.take k) name).length ≤ l.length := Nat.le_trans (vsL_le _ _) (by simp; omega)
        have hb2 := bel2 wr (.cells #[.string x.n, .string x.v, .bool x.nv] 44) (.cells #[.string x.v] 9)
        obtain ⟨ab, ac, w5, g1, g2, g3⟩ := app okS ((wr.alloc (.cells #[.string x.n, .string x.v, .bool x.nv] 44)).alloc (.cells #[.string x.v] 9)) (.slice vb vn vc) _ (r1.below hb2) _ _ hin (by simp only [ES, List.length_singleton]; omega)
        rw [← r3] at g1 g2 g3
        simp only [List.length_singleton] at g1 g2 g3
        have hbl : Below w.heap.size w ((wr.alloc (.cells #[.string x.n, .string x.v, .bool x.nv] 44)).alloc (.cells #[.string x.v] 9)) := r4.trans (hb2.mono r4.size)
        have HNX : Hid (R ES w5 (.slice ab (vn + 1) ac) (vsL (l.take (k + 1)) name) ∧ (∀ i, (Value.slice ab (vn + 1) ac).ownBlock = some i → w.heap.size ≤ i) ∧ vn + 1 = (vsL (l.take (k + 1)) name).length ∧ Below w.heap.size w w5) := by
          rw [hvs.out]
          refine ⟨g2, fun i hi => ?_, by rw [List.length_append, r3]; rfl, hbl.trans (g3.belowB hbl.size r2)⟩
          rcases g3.own i hi with e | e
          · exact r2 i e
          · exact Nat.le_trans hbl.size e
        replace g1 : Hid _ := g1
        clear hx hc r1 r2 r3 r4 hv g2 g3 hin hbl hle hvs hb2
        go_wp2_with (at_builtin; refine Lib.wpList_append_run _ rfl _ _ _ _ rfl _ _ rfl rfl _ _ g1.out ?_)
        go_roundw
        case rel => exact ⟨k + 1, ab, vn + 1, ac, by simp, by omega, rfl, HNX.out⟩
        case measure => simp [intOf]; omega
      · have hvs : Hid (vsL (l.take (k + 1)) name = vsL (l.take k) name) := by show _ = _; rw [vsL_succ l name k hlt, if_neg hn, List.append_nil]
        have hb : (l[k].n.toList == name.toList) = false := str_ne hn
        clear hn
        obtain ⟨x, hx⟩ : ∃ x, l[k] = x := ⟨_, rfl⟩
        rw [hx] at c0 c1 c2 hb
        have HNX : Hid (R ES (wr.alloc (.cells #[.string x.n, .string x.v, .bool x.nv] 44)) (.slice vb vn vc) (vsL (l.take k) name) ∧ (∀ i, (Value.slice vb vn vc).ownBlock = some i → w.heap.size ≤ i) ∧ vn = (vsL (l.take k) name).length ∧ Below w.heap.size w (wr.alloc (.cells #[.string x.n, .string x.v, .bool x.nv] 44))) := by
          obtain ⟨r1, r2, r3, r4⟩ := hv.out
          exact ⟨r1.below (bel1 wr _), r2, r3, r4.trans ((bel1 wr _).mono r4.size)⟩
        clear hx hc hv
        go_wp2_with fail
        go_roundw
        case rel => exact ⟨k + 1, vb, vn, vc, by simp, by omega, rfl, by rw [hvs.out]; exact HNX.out⟩
        case measure => simp [intOf]; omega
    · obtain rfl : k = l.length := by omega
      have hlt' : ¬ (l.length : Int) < (l.length : Int) := by omega
      have hvv : Hid (R ES wr (.slice vb vn vc) (vsL l name) ∧ (∀ i, (Value.slice vb vn vc).ownBlock = some i → w.heap.size ≤ i) ∧ Below w.heap.size w wr) := by
        obtain ⟨r1, r2, r3, r4⟩ := hv.out
        rw [List.take_length] at r1
        exact ⟨r1, r2, r4⟩
      clear hv
      go_wp2_with fail
      go_ret
      exact ⟨(vb, vn, vc), rfl, hvv.out.2.2, hvv.out.1, hvv.out.2.1⟩

end Go.Proofs.YtcadlpmopplkeaaDoor
