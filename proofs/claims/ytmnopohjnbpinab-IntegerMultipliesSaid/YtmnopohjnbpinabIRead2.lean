/-
  Helper: the walk of integer.read.
-/
import Derived.Test.YtmnopohjnbpinabIRead
import Derived.Test.YtmnopohjnbpinabINat2
namespace Go.Proofs.Ytmnopohjnbpinab
open Go.RowKit
set_option linter.unusedVariables false

theorem head_T (z : Int) : decide ((T z).head? = some 45) = neg z := by
  unfold T Tb neg
  by_cases h : z < 0
  · rw [if_pos h, decide_eq_true h]; rfl
  · rw [if_neg h, List.nil_append, decide_eq_false h, decide_eq_false (body_no_minus _)]
/-- the first k places of a text laid from the end -/
def Layk (l R : List UInt8) (k : Nat) : Prop := R.length = l.length ∧ ∀ i, i < k → R.getD (l.length - 1 - i) 0 = dig (l.getD i 0)
theorem layk_step (l R : List UInt8) (k j : Nat) (hkj : k + j + 1 = l.length) (h : Layk l R k) : Layk l (R.set j (dig (l.getD k 0))) (k + 1) := by
  obtain ⟨h1, h2⟩ := h
  refine ⟨by simp [h1], fun i hi => ?_⟩
  have : (R.set j (dig (l.getD k 0))).getD (l.length - 1 - i) 0 = if j = l.length - 1 - i then dig (l.getD k 0) else R.getD (l.length - 1 - i) 0 := by
    rw [List.getD_eq_getElem?_getD, List.getElem?_set]
    split
    · rw [if_pos (by omega)]; rfl
    · rw [← List.getD_eq_getElem?_getD]
  rw [this]
  by_cases e : i = k
  · rw [if_pos (by omega), e]
  · rw [if_neg (by omega)]; exact h2 i (by omega)
theorem layk_end (l R : List UInt8) (h : Layk l R l.length) : R = (l.map dig).reverse := by
  obtain ⟨h1, h2⟩ := h
  refine List.ext_getElem (by simp [h1]) fun i g1 g2 => ?_
  have := h2 (l.length - 1 - i) (by omega)
  rw [show l.length - 1 - (l.length - 1 - i) = i by omega, List.getD_eq_getElem?_getD, List.getElem?_eq_getElem g1, List.getD_eq_getElem?_getD, List.getElem?_eq_getElem (show l.length - 1 - i < l.length by omega)] at this
  rw [List.getElem_reverse, List.getElem_map]
  simp only [List.length_map]
  exact this
/-- a number comes back and true -/
def ReadP (z : Int) (w : World) (e : Ending) (w' : World) : Prop := ∃ a cap, e = .returned (.tuple #[.agg #[.bool (neg z), .slice a (E 10 z.natAbs).length cap], .bool true]) ∧ Rb w' a (E 10 z.natAbs) ∧ (E 10 z.natAbs).length ≤ cap ∧ Below w.heap.size w w'
def ReadNo (w : World) (e : Ending) (w' : World) : Prop := e = .returned (.tuple #[.agg #[.bool false, .slice none 0 0], .bool false]) ∧ Below w.heap.size w w'

set_option maxRecDepth 100000 in
set_option maxHeartbeats 2000000 in
theorem read_no (s : ByteArray) (w : World) (hs : s.size ≤ maxLen) (h : ¬ Vld s.data.toList) : Calls Try.prog 46 #[.string s] w (ReadNo w) := by
  have HV := Lib.hid (fun W => valid_any s W hs)
  have hvb := Lib.hid (vldB_no _ h)
  have HF : Hid (∀ v0 v1 : Value, ReadNo w (.returned (.tuple #[.agg #[.bool false, .slice none 0 0], .bool false])) (w.alloc (.cells #[v0, v1] 70))) := fun v0 v1 => ⟨rfl, (Below.refl _ w).alloc (Nat.le_refl _) _⟩
  clear h hs
  generalize ReadNo w = Po at *
  go_enter Try.func46, Try.ntmps46
  go_wp2_with fail
  refine (HV.out _).mono ?_
  rintro e w' ⟨rfl, rfl⟩
  rw [hvb.out]
  go_wp2
  refine bodyPost_ret (v := .tuple #[.agg #[.bool false, .slice none 0 0], .bool false]) (by simp [results, Try.results46, go_sem]) rfl ?_
  exact HF.out _ _

set_option maxRecDepth 100000 in
set_option maxHeartbeats 3000000 in
theorem read_yes (z : Int) (hz : Sh z) (s : ByteArray) (hsz : s.data.toList = T z) (w : World) : Calls Try.prog 46 #[.string s] w (ReadP z w) := by
  have hs0 : s.size ≤ 402 := by
    have h1 : s.size = (T z).length := by rw [← hsz]; simp
    have h2 := body_len z.natAbs 400 hz (by omega)
    have h3 : (T z).length ≤ 1 + (body 10 z.natAbs).length := by
      unfold T Tb; rw [List.length_append]; split <;> simp
    omega
  have HV := Lib.hid (fun W => valid_any s W (by unfold maxLen; omega))
  have hvb : Hid (vldB s.data.toList = true) := vldB_yes _ (by rw [hsz]; exact vld_T z hz)
  have HCT : Hid (∀ W, Calls Try.prog 37 #[.string s, .string ⟨#[45]⟩] W fun e w' => e = .returned (.tuple #[.string (cutT s), .bool (neg z)]) ∧ W = w') := fun W => by
    have := cut_minus s W
    rw [hsz, head_T, ← hsz] at this
    exact this
  have hlist : (cutT s).data.toList = body 10 z.natAbs := by rw [cutT_list, hsz, strip_T]
  have hback := Lib.hid (body_back z.natAbs)
  have hdig := Lib.hid (body_dig z.natAbs)
  have ht400 : (cutT s).size ≤ 402 := Nat.le_trans (cutT_le s) hs0
  have htl : Hid ((cutT s).data.toList.length = (cutT s).size) := by show _ = _; simp
  have hll := Lib.hid hlist
  have HSG := Lib.hid (fun a cap W hr hl => signed_num (neg z) z.natAbs a cap W (by have := hz; unfold Sh at this; omega) hr hl)
  rw [zi_self] at HSG
  have HFIN : Hid (∀ w4 ra rc v0 v1, w4.heap[w.heap.size]? = some (.cells #[.bool false, .slice none 0 0] 70 (0, 0)) → Below w.heap.size w w4 → Rb w4 ra (E 10 z.natAbs) → (E 10 z.natAbs).length ≤ rc → ReadP z w (.returned (.tuple #[.agg #[.bool (neg z), .slice ra (E 10 z.natAbs).length rc], .bool true])) ((w4.setCell ⟨w.heap.size, 0, none⟩ v0).setCell ⟨w.heap.size, 1, none⟩ v1)) := fun w4 ra rc v0 v1 hb hbe hr hl => by
    have hp := heap_put2 w4 w.heap.size v0 v1
    exact ⟨ra, rc, rfl, hr.boxed w.heap.size hb hp.1 hp.2, hl, (hbe.setCell (p := ⟨w.heap.size, 0, none⟩) (Nat.le_refl _) _).setCell (p := ⟨w.heap.size, 1, none⟩) (Nat.le_refl _) _⟩
  have HTR : Hid (∀ (R : List UInt8) g cap W, R.length = (cutT s).size → R.length ≤ cap → Row W g 5 R → R = ((body 10 z.natAbs).map dig).reverse → (Calls Try.prog 68 #[.slice (some ⟨g, 0, none⟩) (cutT s).size cap] W fun e w' => e = .returned (.slice (some ⟨g, 0, none⟩) (E 10 z.natAbs).length cap) ∧ W = w') ∧ Rb W (some ⟨g, 0, none⟩) (E 10 z.natAbs) ∧ (E 10 z.natAbs).length ≤ cap) := fun R g cap W hl hc hr hR => by
    have h1 : vb 10 R = z.natAbs ∧ Dg 10 R := by rw [hR]; exact hback.out
    have h2 := trimmed_any R g 0 cap W (by omega) hc hr.rb h1.2
    have h3 := canon_take R h1.2
    rw [h1.1] at h2 h3
    have h4 : (E 10 z.natAbs).length ≤ R.length := by rw [h3, List.length_take]; omega
    rw [hl] at h2
    exact ⟨h2, by rw [h3]; exact hr.rb.take _, by omega⟩
  have hne : 0 < (cutT s).size := by
    have h1 := body_ne 10 z.natAbs (by omega)
    rw [← hlist] at h1
    have := htl.out
    rcases Nat.eq_zero_or_pos (cutT s).size with h | h
    · exact absurd (List.eq_nil_of_length_eq_zero (by omega)) h1
    · exact h
  clear hlist hsz hz hs0
  generalize hPo : ReadP z w = Po at *
  clear hPo
  generalize hbz : neg z = b at *
  have hbh := Lib.hid hbz
  clear hbz
  generalize cutT s = t at *
  go_enter Try.func46, Try.ntmps46
  go_wp2_with fail
  refine (HV.out _).mono ?_
  rintro e w' ⟨rfl, rfl⟩
  rw [hvb.out]
  go_wp2_with fail
  refine (HCT.out _).mono ?_
  rintro e w' ⟨rfl, rfl⟩
  have hbx := Lib.hid (heap_alloc_new w (.cells #[.bool false, .slice none 0 0] 70))
  have hbb : Below w.heap.size w (w.alloc (.cells #[.bool false, .slice none 0 0] 70)) := (Below.refl _ w).alloc (Nat.le_refl _) _
  have hsz : (w.alloc (.cells #[.bool false, .slice none 0 0] 70)).heap.size = w.heap.size + 1 := by simp
  generalize w.alloc (.cells #[.bool false, .slice none 0 0] 70) = wb at *
  generalize hn0 : w.heap.size = n0 at *
  have hn0h := Lib.hid hn0
  have hszh := Lib.hid hsz
  clear hn0 hsz
  go_wp2_with (at_make; refine make_bytes _ rfl _ _ 68 rfl Try.underlying68 _ _ t.size rfl rfl ?c1 ?c2 ?c3 ?_)
  case c1 => rfl
  case c2 => rfl
  case c3 => omega
  intro w1 hrow hb1
  rw [hszh.out] at hrow hb1 ⊢
  go_wp2
  go_loopw [22] (fun i wr => ∃ (k : Nat) (R : List UInt8), k ≤ t.size ∧ i = .int .i64 k ∧ Hid (Layk t.data.toList R k) ∧ Row wr (n0 + 1) 5 R ∧ Below (n0 + 1) wb wr) (fun i _ => t.size - (intOf i).toNat)
  case atStart => exact ⟨0, List.replicate t.size 0, Nat.zero_le _, rfl, ⟨by rw [htl.out]; simp, fun i hi => absurd hi (Nat.not_lt_zero _)⟩, hrow, hb1⟩
  case round =>
    clear hrow hb1
    obtain ⟨k, R, hk, rfl, HR, hrow, hbel⟩ := hrel
    by_cases hlt : k < t.size
    · obtain ⟨j, hj⟩ : ∃ j, k + j + 1 = t.size := ⟨t.size - k - 1, by omega⟩
      have hat : (t.size : Int) - 1 - (k : Int) = (j : Int) := by omega
      have hj1 : (j : Int) < t.size := by omega
      have hj0 : (0 : Int) ≤ j := by omega
      have hgd := getD_byte t k hlt
      have hdk := hdig.out (t.data.toList.getD k 0) (by
        rw [← hll.out, List.getD_eq_getElem?_getD, List.getElem?_eq_getElem (by simpa using hlt)]; exact List.getElem_mem _)
      have HS := Lib.hid (layk_step t.data.toList R k j (by rw [htl.out]; omega) HR.out)
      have hdd := Lib.hid (fig_dig (t.data.toList.getD k 0) hdk.1 hdk.2).2
      rw [hgd] at hdk HS hdd
      have d1 : (48 : Int) ≤ (t[k].toNat : Int) := by have := hdk.1; omega
      have d2 : (t[k].toNat : Int) ≤ 57 := by have := hdk.2; omega
      have hRl : Hid (R.length = t.size) := HR.out.1.trans htl.out
      have hcell := hrow.cell j (by have := hRl.out; omega)
      have hfree := hrow.free j
      have HROW := Lib.hid hrow
      have hjn : j < R.length := by have := hRl.out; omega
      clear hgd hdk hrow hj
      go_wp2
      go_roundw
      case rel =>
        refine ⟨k + 1, R.set j (dig t[k]), by omega, by go_num, HS.out, ?_, hbel.setCell (Nat.le_refl _) _⟩
        have := HROW.out.set j (dig t[k]) hjn
        rw [hdd.out] at this
        rw [show ((t[k].toNat - 48 : Nat) : Int) = (t[k].toNat : Int) - 48 by omega] at this
        exact this
      case measure => simp [intOf]; omega
    · have hke : k = t.data.toList.length := by rw [htl.out]; omega
      have hkl : (t.size : Int) ≤ k := by omega
      have hRl := HR.out.1
      rw [htl.out] at hRl
      rw [hke] at HR
      have hRe := layk_end _ _ HR.out
      rw [hll.out] at hRe
      obtain ⟨hT, hrb, hle⟩ := HTR.out R (n0 + 1) t.size wr hRl (by omega) hrow hRe
      have HT := Lib.hid hT
      have HRB := Lib.hid (And.intro hrb hle)
      have hszr := hbel.size
      have hrlt := hrow.lt
      clear hT hrb hle hRe hRl hke HR hrow
      go_wp2_with fail
      refine HT.out.mono ?_
      rintro e w' ⟨rfl, rfl⟩
      go_wp2_with fail
      refine (HSG.out _ _ _ HRB.out.1 HRB.out.2).mono ?_
      rintro e w4 ⟨ra, rc, rfl, h1, h2, h3⟩
      have hb4 : w4.heap[n0]? = some (.cells #[.bool false, .slice none 0 0] 70 (0, 0)) := by
        rw [h3.block n0 (by omega), hbel.block n0 (by omega)]
        exact hbx.out
      have r0 : w4.cell? ⟨n0, 0, none⟩ = some (.bool false) := by simp [World.cell?, hb4]
      have r1 : w4.cell? ⟨n0, 1, none⟩ = some (.slice none 0 0) := by simp [World.cell?, hb4]
      have r2 : w4.frozen? ⟨n0, 0, none⟩ = false := by simp [World.frozen?, hb4]
      have r3 : w4.frozen? ⟨n0, 1, none⟩ = false := by simp [World.frozen?, hb4]
      have hfin := Lib.hid (fun v0 v1 => HFIN.out w4 ra rc v0 v1 hb4 ((hbb.trans (hbel.mono (by omega))).trans (h3.mono (by omega))) h1 h2)
      clear h1 h2 h3 hb4 HFIN HTR
      generalize (E 10 z.natAbs).length = l at *
      go_wp2
      refine bodyPost_ret (v := .tuple #[.agg #[.bool (neg z), .slice ra l rc], .bool true]) (by simp [results, Try.results46, go_sem, r0, r1]) rfl ?_
      rw [hbh.out]
      exact hfin.out _ _
end Go.Proofs.Ytmnopohjnbpinab
