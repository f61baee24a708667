/- BlockPushes: one push of both. -/
import Derived.Test.YtdgdjanchpfleaaD8
import Derived.Test.YtdgdjanchpfleaaDa
import Derived.Test.YtdgdjanchpfleaaC6
namespace Go.Proofs.Ytdgdjanchpfleaa
open Go.RowKit
set_option linter.unusedVariables false
set_option linter.unusedSimpArgs false

/-- the program's joiner and the document's are alike -/
def Sm (st : Js) (L : List (Fr × SV)) (c : Int) : Prop :=
  match st.v with
  | .inl _ => L = [] ∧ c = 0
  | .inr (.inr c') => L = [] ∧ c = c' ∧ c ≠ 0
  | .inr (.inl x) => c = 0 ∧ x.2.2 = flat L ∧ x.2.2.length ≤ 131072 ∧ ∃ X u r, L = (X, u) :: r ∧ x.1 = headOf X
/-- the params of a block's first frame -/
def Fp (W : World) (st : Js) (L : List (Fr × SV)) : Prop :=
  match st.v with
  | .inr (.inl x) => ∀ X u r, L = (X, u) :: r → R EP W (sv u) x.2.1
  | _ => True
theorem Sm.busy {st : Js} {L : List (Fr × SV)} {c : Int} (h : Sm st L c) : busyB st = decide (0 < L.length) := by
  obtain ⟨_ | ⟨f, ps, l⟩ | c'⟩ := st
  · obtain ⟨rfl, _⟩ := h; rfl
  · obtain ⟨_, _, _, X, u, r, rfl, _⟩ := h
    simp [busyB]
  · obtain ⟨rfl, _⟩ := h; rfl
theorem Sm.code {st : Js} {L : List (Fr × SV)} {c : Int} (h : Sm st L c) : st.code = c := by
  obtain ⟨_ | ⟨f, ps, l⟩ | c'⟩ := st
  · exact h.2.symm
  · exact h.1.symm
  · exact h.2.1.symm
theorem Fp.stays {W W' : World} {st : Js} {L : List (Fr × SV)} (h : Fp W st L) (hb : ∀ (k : Nat) (c : Array Value), W.heap[k]? = some (Obj.cells c 45 (0, 0)) → W'.heap[k]? = W.heap[k]?) : Fp W' st L := by
  obtain ⟨_ | ⟨f, ps, l⟩ | c'⟩ := st
  · trivial
  · intro X u r e
    have h1 : R EP W (sv u) ps := h X u r e
    exact h1.stays fun k hk _ => by
      obtain ⟨c, hc⟩ := h1.ty k hk
      exact hb k c hc
  · trivial

/-- what a push of both tells -/
structure Pb (st : Js) (L : List (Fr × SV)) (c : Int) (f : Fr) (ps : List (Int × Int)) (st' : Js) (ok : Bool) (g : Fr) (qs : List (Int × Int)) (t : ByteArray) : Prop where
  p : ∀ W b s (x : SV), Jn W b s st → In EP W (sv x) ps → Calls Try.prog 12 #[.pointer (some ⟨b, 0, none⟩), .agg (fv f (sv x))] W fun e w' => PPost W s b st' ok g qs t e w'
  d : ∀ x : SV, ∃ (L' : List (Fr × SV)) (y : SV), Sm st' L' st'.code ∧ L'.length ≤ L.length + 1 ∧ (∀ W b v, RB W b v c → R EF W v L → Calls Try.prog 19 #[.pointer (some ⟨b, 0, none⟩), .agg (fv f (sv x))] W fun e w' => RPost W v b L' st'.code ok g y t e w') ∧ (∀ W, Fp W st L → R EP W (sv x) ps → R EP W (sv y) qs ∧ Fp W st' L')

theorem push_both (st : Js) (L : List (Fr × SV)) (c : Int) (hs : Sm st L c) (f : Fr) (ps : List (Int × Int)) (hp : ps.length * 16 ≤ 140737488355328) (hz : f.data.size ≤ 140737488355328) (hl : (L.length + 1) * 112 ≤ 140737488355328) :
    ∃ st' ok g qs t, Pb st L c f ps st' ok g qs t := by
  obtain ⟨F, hf⟩ : ∃ F, (bits .and .i64 f.fl 4 == 0) = F := ⟨_, rfl⟩
  obtain ⟨_ | ⟨h, qs, l⟩ | c'⟩ := st
  · obtain ⟨rfl, rfl⟩ := hs
    by_cases h9 : f.ty = 9
    · refine ⟨.broken 1, false, Fr.zero, [], ⟨#[]⟩, fun W b s x hj hI => ?_, fun x => ⟨[], (none, 0, 0), ⟨rfl, rfl, by decide⟩, by simp, fun W b v hb hr => ?_, fun W _ _ => ⟨R.nil _ _, trivial⟩⟩⟩
      · obtain ⟨_, rfl⟩ := id hj
        exact push_idle9 W b f x ps hj hI hp h9
      · obtain ⟨base, cap, rfl, _⟩ := hr.slice
        exact rpush_idle9 W b base cap f x hb hr h9
    · cases hh : dH f.ty
      · refine ⟨.idle, false, Fr.zero, [], ⟨#[]⟩, fun W b s x hj hI => ?_, fun x => ⟨[], (none, 0, 0), ⟨rfl, rfl⟩, by simp, fun W b v hb hr => ?_, fun W _ _ => ⟨R.nil _ _, trivial⟩⟩⟩
        · obtain ⟨_, rfl⟩ := id hj
          exact push_none W b f x ps hj hI hp h9 hh
        · obtain ⟨base, cap, rfl, _⟩ := hr.slice
          exact rpush_none W b base cap f x hb hr h9 hh
      · have fl1 : ∀ x, (flat [(f, x)]).length = f.data.size := fun x => by rw [flat_one, len_data]
        by_cases hbig : 131072 < f.data.size
        · refine ⟨.broken 11, false, Fr.zero, [], ⟨#[]⟩, fun W b s x hj hI => ?_, fun x => ⟨[], (none, 0, 0), ⟨rfl, rfl, by decide⟩, by simp, fun W b v hb hr => ?_, fun W _ _ => ⟨R.nil _ _, trivial⟩⟩⟩
          · obtain ⟨_, rfl⟩ := id hj
            exact push_ilong W b f x ps hj hI hp h9 hh hbig hz
          · obtain ⟨base, cap, rfl, _⟩ := hr.slice
            refine (rpush_igo W b base cap f x hb hr h9 hh hz F hf).mono fun e w' hg => ?_
            unfold GPost at hg
            rw [if_pos (by rw [fl1]; exact hbig)] at hg
            exact hg
        · cases F
          · refine ⟨.idle, true, headOf f, ps, bt f.data.data.toList, fun W b s x hj hI => ?_, fun x => ⟨[], x, ⟨rfl, rfl⟩, by simp, fun W b v hb hr => ?_, fun W _ hr => ⟨hr, trivial⟩⟩⟩
            · obtain ⟨_, rfl⟩ := id hj
              have := push_igo W b f x ps hj hI hp h9 hh (by omega) false hf
              simp only [Bool.false_eq_true, if_false, List.nil_append] at this
              exact this
            · obtain ⟨base, cap, rfl, _⟩ := hr.slice
              refine (rpush_igo W b base cap f x hb hr h9 hh hz false hf).mono fun e w' hg => ?_
              unfold GPost at hg
              rw [if_neg (by rw [fl1]; exact hbig), if_neg (by decide), flat_one] at hg
              exact hg
          · refine ⟨.busy (headOf f) ps f.data.data.toList, false, Fr.zero, [], ⟨#[]⟩, fun W b s x hj hI => ?_, fun x => ⟨[(f, x)], (none, 0, 0), ⟨rfl, (flat_one _ _).symm, by show f.data.data.toList.length ≤ _; rw [len_data]; omega, f, x, [], rfl, rfl⟩, by simp, fun W b v hb hr => ?_, fun W _ hr => ⟨R.nil _ _, fun X u r e => by injection e with e _; injection e with _ e; subst e; exact hr⟩⟩⟩
            · obtain ⟨_, rfl⟩ := id hj
              have := push_igo W b f x ps hj hI hp h9 hh (by omega) true hf
              simp only [if_true, List.nil_append] at this
              exact this
            · obtain ⟨base, cap, rfl, _⟩ := hr.slice
              refine (rpush_igo W b base cap f x hb hr h9 hh hz true hf).mono fun e w' hg => ?_
              unfold GPost at hg
              rw [if_neg (by rw [fl1]; exact hbig), if_pos rfl] at hg
              exact hg
  · obtain ⟨rfl, hfl, hll, X, u, r, rfl, hh⟩ := hs
    simp only at hfl hll hh
    subst hh
    have row : ∀ {W : World} {v : Value}, R EF W v ((X, u) :: r) → ∃ g cap, v = .slice (some ⟨g, 0, none⟩) (r.length + 1) cap := fun hr => by
      obtain ⟨g, cap, e, _⟩ := hr.setc okF 0 0 (by simp) (by decide)
      exact ⟨g, cap, e⟩
    cases hg : (f.ty == 9 && f.st == X.st)
    · refine ⟨.broken 1, false, Fr.zero, [], ⟨#[]⟩, fun W b s x hj hI => push_bbad W b s (headOf X) qs l f x ps hj hI hp hg, fun x => ⟨[], (none, 0, 0), ⟨rfl, rfl, by decide⟩, by simp, fun W b v hb hr => ?_, fun W _ _ => ⟨R.nil _ _, trivial⟩⟩⟩
      obtain ⟨g, cap, rfl⟩ := row hr
      exact rpush_bad W b g cap r.length X u r f x hb hr hg
    · have hg' : f.ty = 9 ∧ f.st = X.st := by simpa using hg
      have fl1 : ∀ x, flat ((X, u) :: (r ++ [(f, x)])) = l ++ f.data.data.toList := fun x => by rw [← List.cons_append, flat_app, flat_one, ← hfl]
      have hl2 : (l ++ f.data.data.toList).length = l.length + f.data.size := by rw [List.length_append, len_data]
      have hfl' : (flat ((X, u) :: r)).length ≤ 131072 := by rw [← hfl]; exact hll
      have hr2 : (r.length + 2) * 112 ≤ 140737488355328 := by simpa using hl
      by_cases hbig : 131072 < l.length + f.data.size
      · refine ⟨.broken 11, false, Fr.zero, [], ⟨#[]⟩, fun W b s x hj hI => push_blong W b s (headOf X) qs l f x ps hj hI hp hg hbig hz, fun x => ⟨[], (none, 0, 0), ⟨rfl, rfl, by decide⟩, by simp, fun W b v hb hr => ?_, fun W _ _ => ⟨R.nil _ _, trivial⟩⟩⟩
        obtain ⟨g, cap, rfl⟩ := row hr
        refine (rpush_bgo W b g cap r.length X u r f x hb hr hg'.1 hg'.2 hz hfl' hr2 F hf).mono fun e w' hG => ?_
        unfold GPost at hG
        rw [if_pos (by rw [fl1, hl2]; exact hbig)] at hG
        exact hG
      · cases F
        · refine ⟨.idle, true, headOf X, qs, bt (l ++ f.data.data.toList), fun W b s x hj hI => ?_, fun x => ⟨[], u, ⟨rfl, rfl⟩, by simp, fun W b v hb hr => ?_, fun W hp' _ => ⟨hp' X u r rfl, trivial⟩⟩⟩
          · have := push_bgo W b s (headOf X) qs l f x ps hj hI hp hg (by omega) false hf
            simp only [Bool.false_eq_true, if_false] at this
            exact this
          · obtain ⟨g, cap, rfl⟩ := row hr
            refine (rpush_bgo W b g cap r.length X u r f x hb hr hg'.1 hg'.2 hz hfl' hr2 false hf).mono fun e w' hG => ?_
            unfold GPost at hG
            rw [if_neg (by rw [fl1, hl2]; exact hbig), if_neg (by decide), fl1] at hG
            exact hG
        · refine ⟨.busy (headOf X) qs (l ++ f.data.data.toList), false, Fr.zero, [], ⟨#[]⟩, fun W b s x hj hI => ?_, fun x => ⟨(X, u) :: (r ++ [(f, x)]), (none, 0, 0), ⟨rfl, (fl1 x).symm, by show (l ++ f.data.data.toList).length ≤ _; rw [hl2]; omega, X, u, _, rfl, rfl⟩, by simp, fun W b v hb hr => ?_, fun W hp' _ => ⟨R.nil _ _, fun X' u' r' e => by injection e with e _; injection e with _ e; subst e; exact hp' X u r rfl⟩⟩⟩
          · have := push_bgo W b s (headOf X) qs l f x ps hj hI hp hg (by omega) true hf
            simp only [if_true] at this
            exact this
          · obtain ⟨g, cap, rfl⟩ := row hr
            refine (rpush_bgo W b g cap r.length X u r f x hb hr hg'.1 hg'.2 hz hfl' hr2 true hf).mono fun e w' hG => ?_
            unfold GPost at hG
            rw [if_neg (by rw [fl1, hl2]; exact hbig), if_pos rfl] at hG
            exact hG
  · obtain ⟨rfl, rfl, hc⟩ := hs
    refine ⟨.broken c, false, Fr.zero, [], ⟨#[]⟩, fun W b s x hj hI => push_broken W b s c f x ps hj hI hp, fun x => ⟨[], (none, 0, 0), ⟨rfl, rfl, hc⟩, by simp, fun W b v hb hr => ?_, fun W _ _ => ⟨R.nil _ _, trivial⟩⟩⟩
    obtain ⟨base, cap, rfl, _⟩ := hr.slice
    exact rpush_broken W b base _ cap [] c f x hb hr hc
end Go.Proofs.Ytdgdjanchpfleaa
