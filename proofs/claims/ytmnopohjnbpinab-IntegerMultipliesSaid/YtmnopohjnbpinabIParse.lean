/-
  Helper: the walks of textOfBase and integer.Parse.
-/
import Derived.Test.YtmnopohjnbpinabICalc
import Derived.Test.YtmnopohjnbpinabIBase2
namespace Go.Proofs.Ytmnopohjnbpinab
open Go.RowKit
set_option linter.unusedVariables false

def StrP (z : Int) (w : World) (e : Ending) (w' : World) : Prop := e = .returned (.tuple #[.string (TB z), .int .i64 0]) ∧ Below w.heap.size w w'
def StrE (k : Int) (w : World) (e : Ending) (w' : World) : Prop := e = .returned (.tuple #[.string ⟨#[]⟩, .int .i64 k]) ∧ Below w.heap.size w w'
set_option maxRecDepth 100000 in
set_option maxHeartbeats 1000000 in
theorem textOf_ok (ds : List UInt8) (bn : Bool) (b : Nat) (hb : 1 ≤ b) (hb2 : b ≤ 256) (a : Option Addr) (cap : Nat) (w : World) (hr : Rb w a ds) (hs : ds.length ≤ 1000000) (hV : (E 10 (vm b ds)).length ≤ 400) :
    Calls Try.prog 40 #[.bool bn, .slice a ds.length cap, .int .i64 (b : Int)] w (StrP (zi bn (vm b ds)) w) := by
  have HO := Lib.hid (ofBase_ok ds b hb hb2 a cap w hr hs hV)
  have HS := Lib.hid (fun ra rc W hr hl => signed_num bn (vm b ds) ra rc W (by omega) hr hl)
  have hz : (E 10 (zi bn (vm b ds)).natAbs).length ≤ 400 := by rw [zi_abs]; exact hV
  have HT := Lib.hid (fun ra rc W hr => numtext_any (zi bn (vm b ds)) 10 (by omega) (by omega) ra rc W hr (by omega) (by omega))
  have HF : Hid (∀ w', Below w.heap.size w w' → StrP (zi bn (vm b ds)) w (.returned (.tuple #[.string ⟨(Tb 10 (zi bn (vm b ds))).toArray⟩, .int .i64 0])) w') := fun w' h => ⟨rfl, h⟩
  clear hr hV hz
  generalize hPo : StrP (zi bn (vm b ds)) w = Po at *
  clear hPo
  generalize hz : zi bn (vm b ds) = z at *
  clear hz
  generalize ds.length = l at *
  generalize vm b ds = V at *
  go_enter Try.func40, Try.ntmps40
  go_wp2_with fail
  refine HO.out.mono ?_
  rintro e w1 ⟨ra, rc, rfl, h1, h2, h3⟩
  have hs := Lib.hid (HS.out ra rc w1 h1 h2)
  clear h1 h2 HS
  generalize (E 10 V).length = lv at *
  go_wp2_with fail
  refine hs.out.mono ?_
  rintro e w2 ⟨sa, sc, rfl, h4, h5, h6⟩
  have ht := Lib.hid (HT.out sa sc w2 h4)
  have hw2 : Below w.heap.size w w2 := h3.trans (h6.mono h3.size)
  clear h4 h5 h6 h3 HT
  generalize neg z = bz at *
  generalize (E 10 z.natAbs).length = lz at *
  go_wp2_with fail
  refine ht.out.mono ?_
  rintro e w3 ⟨rfl, h7⟩
  have hfin := Lib.hid (HF.out w3 (hw2.trans (h7.mono hw2.size)))
  clear h7 hw2
  generalize (⟨(Tb 10 z).toArray⟩ : ByteArray) = tx at *
  go_wp2
  exact hfin.out
set_option maxRecDepth 100000 in
set_option maxHeartbeats 1000000 in
theorem textOf_long (ds : List UInt8) (bn : Bool) (b : Nat) (hb : 1 ≤ b) (hb2 : b ≤ 256) (a : Option Addr) (cap : Nat) (w : World) (hr : Rb w a ds) (hs : ds.length ≤ 1000000) (hV : 400 < (E 10 (vm b ds)).length) :
    Calls Try.prog 40 #[.bool bn, .slice a ds.length cap, .int .i64 (b : Int)] w (StrE 6 w) := by
  have HO := Lib.hid (ofBase_long ds b hb hb2 a cap w hr hs hV)
  have HF : Hid (∀ w', Below w.heap.size w w' → StrE 6 w (.returned (.tuple #[.string ⟨#[]⟩, .int .i64 6])) w') := fun w' h => ⟨rfl, h⟩
  clear hr hV
  generalize hPo : StrE 6 w = Po at *
  clear hPo
  generalize ds.length = l at *
  go_enter Try.func40, Try.ntmps40
  go_wp2_with fail
  refine HO.out.mono ?_
  rintro e w1 ⟨rfl, h1⟩
  have hfin := Lib.hid (HF.out w1 h1)
  clear h1
  go_wp2
  exact hfin.out

/-- what stands behind the sign of a text that is parsed -/
def prest (s : List UInt8) : List UInt8 := if s.head? = some 45 then s.tail else if s.head? = some 43 then s.tail else s
def pneg (s : List UInt8) : Bool := decide (s.head? = some 45)
/-- the digits of a text -/
def pdig (l : List UInt8) : List UInt8 := l.map fun c => UInt8.ofNat (dgc c)
def restT (s : ByteArray) : ByteArray := ⟨(prest s.data.toList).toArray⟩
theorem restT_list (s : ByteArray) : (restT s).data.toList = prest s.data.toList := rfl
theorem restT_le (s : ByteArray) : (restT s).size ≤ s.size := by
  have h1 : (restT s).size = (prest s.data.toList).length := rfl
  have h2 : s.data.toList.length = s.size := by simp
  rw [h1]
  unfold prest
  split
  · rw [List.length_tail]; omega
  · split
    · rw [List.length_tail]; omega
    · omega
/-- the text of the digits, after both cuts -/
theorem trim_plus (s : ByteArray) (w : World) : Calls Try.prog 38 #[.string s, .string ⟨#[43]⟩] w fun e w' => e = .returned (.string ⟨(if s.data.toList.head? = some 43 then s.data.toList.tail else s.data.toList).toArray⟩) ∧ w = w' :=
  (Try.strings_TrimPrefix s ⟨#[43]⟩ w).mono fun e w' ⟨he, hw⟩ => ⟨by rw [he, (pre_char s.data.toList 43).2], hw.symm⟩
theorem Parse_arg (s : ByteArray) (base : Int) (w : World) (h : isB base = false) : Calls Try.prog 9 #[.string s, .int .i64 base] w (StrE 1 w) := by
  have HB := Lib.hid (isBase_any base w)
  rw [h] at HB
  have HF : Hid (StrE 1 w (.returned (.tuple #[.string ⟨#[]⟩, .int .i64 1])) w) := ⟨rfl, Below.refl _ _⟩
  clear h
  generalize StrE 1 w = Po at *
  go_enter Try.func9, Try.ntmps9
  go_wp2_with fail
  refine HB.out.mono ?_
  rintro e w1 ⟨rfl, rfl⟩
  go_wp2
  exact HF.out
/-- what Parse does once base and sign are read -/
def PfP (s : List UInt8) (b : Nat) (w : World) (e : Ending) (w' : World) : Prop :=
  ((prest s = [] ∨ ∃ i, i < (prest s).length ∧ b ≤ dgc ((prest s).getD i 0)) → StrE 3 w e w') ∧
  ((prest s ≠ [] ∧ ∀ i, i < (prest s).length → dgc ((prest s).getD i 0) < b) → ((E 10 (vm b (pdig (prest s)))).length ≤ 400 → StrP (zi (pneg s) (vm b (pdig (prest s)))) w e w') ∧ (400 < (E 10 (vm b (pdig (prest s)))).length → StrE 6 w e w'))
/-- the first k digits are laid -/
def Digk (l R : List UInt8) (k : Nat) : Prop := R.length = l.length ∧ ∀ i, i < k → R.getD i 0 = UInt8.ofNat (dgc (l.getD i 0))
theorem digk_step (l R : List UInt8) (k : Nat) (hk : k < l.length) (h : Digk l R k) : Digk l (R.set k (UInt8.ofNat (dgc (l.getD k 0)))) (k + 1) := by
  obtain ⟨h1, h2⟩ := h
  refine ⟨by simp [h1], fun i hi => ?_⟩
  rw [getD_set _ _ _ _ (by omega)]
  by_cases e : k = i
  · rw [if_pos e, e]
  · rw [if_neg e]; exact h2 i (by omega)
theorem digk_end (l R : List UInt8) (k : Nat) (hk : l.length ≤ k) (h : Digk l R k) : R = pdig l := by
  obtain ⟨h1, h2⟩ := h
  unfold pdig
  refine List.ext_getElem (by simp [h1]) fun i g1 g2 => ?_
  have := h2 i (by omega)
  rw [List.getD_eq_getElem?_getD, List.getElem?_eq_getElem g1, List.getD_eq_getElem?_getD, List.getElem?_eq_getElem (show i < l.length by omega)] at this
  rw [List.getElem_map]; exact this

set_option maxRecDepth 100000 in
set_option maxHeartbeats 4000000 in
theorem Parse_go (s : ByteArray) (b : Nat) (hB : isB (b : Int) = true) (hb : 2 ≤ b) (hb2 : b ≤ 16) (w : World) (hs : s.size ≤ 900000) : Calls Try.prog 9 #[.string s, .int .i64 (b : Int)] w (PfP s.data.toList b w) := by
  have HB := Lib.hid (isBase_any (b : Int) w)
  rw [hB] at HB
  have HCT := Lib.hid (cut_minus s w)
  have HTP := Lib.hid (trim_plus s w)
  have hrs := restT_le s
  have htl : Hid ((restT s).data.toList.length = (restT s).size) := by show _ = _; simp
  have hBad : Hid (∀ w', Below w.heap.size w w' → ((restT s).size = 0 ∨ ∃ i, i < (restT s).size ∧ b ≤ dgc ((restT s).data.toList.getD i 0)) → PfP s.data.toList b w (.returned (.tuple #[.string ⟨#[]⟩, .int .i64 3])) w') := fun w' hb h => by
    have hA : prest s.data.toList = [] ∨ ∃ i, i < (prest s.data.toList).length ∧ b ≤ dgc ((prest s.data.toList).getD i 0) := by
      rcases h with h | ⟨i, h1, h2⟩
      · left; exact List.eq_nil_of_length_eq_zero h
      · right; exact ⟨i, h1, h2⟩
    refine ⟨fun _ => ⟨rfl, hb⟩, fun ⟨g1, g2⟩ => ?_⟩
    rcases hA with h | ⟨i, h1, h2⟩
    · exact absurd h g1
    · exact absurd (g2 i h1) (by omega)
  have hGood : Hid (∀ e w', (restT s).size ≠ 0 → (∀ i, i < (restT s).size → dgc ((restT s).data.toList.getD i 0) < b) → ((E 10 (vm b (pdig (restT s).data.toList))).length ≤ 400 → StrP (zi (pneg s.data.toList) (vm b (pdig (restT s).data.toList))) w e w') → (400 < (E 10 (vm b (pdig (restT s).data.toList))).length → StrE 6 w e w') → PfP s.data.toList b w e w') := fun e w' h0 h1 h2 h3 =>
    ⟨fun g => by
      rcases g with g | ⟨i, g1, g2⟩
      · exact absurd (show (restT s).size = 0 by show (prest s.data.toList).length = 0; rw [g]; rfl) h0
      · exact absurd (h1 i g1) (by have : b ≤ dgc ((restT s).data.toList.getD i 0) := g2; omega), fun _ => ⟨h2, h3⟩⟩
  have HTO := Lib.hid (fun bn a cap W hr hV => textOf_ok (pdig (restT s).data.toList) bn b (by omega) (by omega) a cap W hr (by rw [show (pdig (restT s).data.toList).length = (restT s).size by simp [pdig]]; omega) hV)
  have HTL := Lib.hid (fun bn a cap W hr hV => textOf_long (pdig (restT s).data.toList) bn b (by omega) (by omega) a cap W hr (by rw [show (pdig (restT s).data.toList).length = (restT s).size by simp [pdig]]; omega) hV)
  have hpl : Hid ((pdig (restT s).data.toList).length = (restT s).size) := by show _ = _; simp [pdig]
  have HDO := Lib.hid (fun c W h => digitOf_ok c W h)
  have HDN := Lib.hid (fun c W h => digitOf_no c W h)
  have HTT : Hid (s.data.toList.head? = some 45 → (⟨(strip s.data.toList).toArray⟩ : ByteArray) = restT s) := fun h => by unfold restT prest strip; rw [if_pos h, if_pos h]
  have HTM : Hid (¬ s.data.toList.head? = some 45 → (⟨(strip s.data.toList).toArray⟩ : ByteArray) = s ∧ (⟨(if s.data.toList.head? = some 43 then s.data.toList.tail else s.data.toList).toArray⟩ : ByteArray) = restT s) := fun h => by
    unfold restT prest strip; rw [if_neg h, if_neg h]; exact ⟨by simp, rfl⟩
  have hpn := Lib.hid (show pneg s.data.toList = decide (s.data.toList.head? = some 45) from rfl)
  clear hB
  by_cases hneg : s.data.toList.head? = some 45
  · have e1 := HTT.out hneg
    rw [e1, decide_eq_true hneg] at HCT
    rw [decide_eq_true hneg] at hpn
    clear HTT HTM HTP e1 hneg
    generalize hPo : PfP s.data.toList b w = Po at *
    clear hPo
    generalize restT s = t at *
    go_enter Try.func9, Try.ntmps9
    go_wp2_with fail
    refine HB.out.mono ?_
    rintro e w1 ⟨rfl, rfl⟩
    go_wp2_with fail
    refine HCT.out.mono ?_
    rintro e w1 ⟨rfl, rfl⟩
    by_cases h0 : t.size = 0
    · have hfin := Lib.hid (hBad.out w (Below.refl _ _) (.inl h0))
      have hte : t.toList = [] := by rw [Lib.toList_data]; exact List.eq_nil_of_length_eq_zero (by rw [← Lib.size_eq]; exact h0)
      clear h0
      go_wp2
      exact hfin.out
    · have hte : t.toList.isEmpty = false := by
        cases h : t.toList.isEmpty with
        | false => rfl
        | true => exact absurd (by rw [List.isEmpty_iff, Lib.toList_data] at h; have := congrArg List.length h; rw [← Lib.size_eq] at this; exact this) h0
      have h0h := Lib.hid h0
      clear h0
      go_wp2_with (at_make; refine make_bytes _ rfl _ _ 26 rfl Try.underlying26 _ _ t.size rfl rfl ?m1 ?m2 ?m3 ?_)
      case m1 => rfl
      case m2 => rfl
      case m3 => omega
      intro w1 hrow hb1
      generalize hgg : w.heap.size = g at *
      have hgh := Lib.hid hgg
      clear hgg
      go_wp2
      go_loopw [31] (fun i wr => ∃ (k : Nat) (R : List UInt8), k ≤ t.size ∧ i = .int .i64 k ∧ Hid (Digk t.data.toList R k ∧ ∀ i, i < k → dgc (t.data.toList.getD i 0) < b) ∧ Row wr g 5 R ∧ Below g w wr) (fun i _ => t.size - (intOf i).toNat)
      case atStart => exact ⟨0, List.replicate t.size 0, Nat.zero_le _, rfl, ⟨⟨by rw [htl.out]; simp, fun i hi => absurd hi (Nat.not_lt_zero _)⟩, fun i hi => absurd hi (Nat.not_lt_zero _)⟩, hrow, hb1⟩
      case round =>
        clear hrow hb1
        obtain ⟨k, R, hk, rfl, HR, hrow, hbel⟩ := hrel
        by_cases hlt : k < t.size
        · have hgd := getD_byte t k hlt
          by_cases hok : dgc (t.data.toList.getD k 0) < b
          · have HS := Lib.hid (digk_step t.data.toList R k (by have := htl.out; omega) HR.out.1)
            have HA : Hid (∀ i, i < k + 1 → dgc (t.data.toList.getD i 0) < b) := fun i hi => by
              by_cases e : i = k
              · rw [e]; exact hok
              · exact HR.out.2 i (by omega)
            have hRl : Hid (R.length = t.size) := HR.out.1.1.trans htl.out
            have hcell := hrow.cell k (by have := hRl.out; omega)
            have hfree := hrow.free k
            have HROW := Lib.hid hrow
            have hkR : k < R.length := by have := hRl.out; omega
            rw [hgd] at hok HS
            have hD := Lib.hid (HDO.out t[k] wr (by omega))
            clear hgd hrow HR
            generalize hdd : dgc t[k] = d at *
            clear hdd
            go_wp2_with fail
            refine hD.out.mono ?_
            rintro e w2 ⟨rfl, rfl⟩
            go_wp2
            go_roundw
            case rel => exact ⟨k + 1, R.set k (UInt8.ofNat d), by omega, by go_num, ⟨HS.out, HA.out⟩, HROW.out.put k d _ hkR (by omega) (by omega), hbel.setCell (Nat.le_refl _) _⟩
            case measure => simp [intOf]; omega
          · have hfin := Lib.hid (hBad.out wr hbel (.inr ⟨k, hlt, by omega⟩))
            rw [hgd] at hok
            clear hgd hrow HR
            by_cases h16 : dgc t[k] < 16
            · have hD := Lib.hid (HDO.out t[k] wr h16)
              generalize hdd : dgc t[k] = d at *
              clear hdd
              go_wp2_with fail
              refine hD.out.mono ?_
              rintro e w2 ⟨rfl, rfl⟩
              go_wp2
              exact hfin.out
            · have hD := Lib.hid (HDN.out t[k] wr h16)
              clear h16 hok
              go_wp2_with fail
              refine hD.out.mono ?_
              rintro e w2 ⟨rfl, rfl⟩
              go_wp2
              exact hfin.out
        · have hke : k = t.size := by omega
          have hkl : (t.size : Int) ≤ k := by omega
          have hRe := digk_end t.data.toList R k (by have := htl.out; omega) HR.out.1
          have hall := HR.out.2
          rw [hke] at hall
          rw [hRe] at hrow
          have hgd := Lib.hid (fun e w' => hGood.out e w' h0h.out hall)
          have hrb := Lib.hid hrow.rb
          clear hke hRe hall HR hrow hBad hGood
          by_cases hV : (E 10 (vm b (pdig t.data.toList))).length ≤ 400
          · have hT := HTO.out true (some ⟨g, 0, none⟩) t.size wr hrb.out hV
            rw [hpl.out] at hT
            have hTh := Lib.hid hT
            have hP : Hid (∀ w', Below wr.heap.size wr w' → Po (.returned (.tuple #[.string (TB (zi true (vm b (pdig t.data.toList)))), .int .i64 0])) w') := fun w' hb => hgd.out _ w' (fun _ => by rw [hpn.out]; exact ⟨rfl, by rw [hgh.out]; exact hbel.trans (hb.mono (by have := hgh.out; have := hbel.size; omega))⟩) (fun h => absurd hV (by omega))
            clear hT hV hgd HTO HTL
            generalize hzz : zi true (vm b (pdig t.data.toList)) = zz at *
            clear hzz
            go_wp2_with fail
            refine hTh.out.mono ?_
            rintro e w2 ⟨rfl, hb2⟩
            have hfin := Lib.hid (hP.out w2 hb2)
            clear hb2
            go_wp2
            exact hfin.out
          · have hT := HTL.out true (some ⟨g, 0, none⟩) t.size wr hrb.out (by omega)
            rw [hpl.out] at hT
            have hTh := Lib.hid hT
            have hP : Hid (∀ w', Below wr.heap.size wr w' → Po (.returned (.tuple #[.string ⟨#[]⟩, .int .i64 6])) w') := fun w' hb => hgd.out _ w' (fun h => absurd h hV) (fun _ => ⟨rfl, by rw [hgh.out]; exact hbel.trans (hb.mono (by have := hgh.out; have := hbel.size; omega))⟩)
            clear hT hV hgd HTO HTL
            go_wp2_with fail
            refine hTh.out.mono ?_
            rintro e w2 ⟨rfl, hb2⟩
            have hfin := Lib.hid (hP.out w2 hb2)
            clear hb2
            go_wp2
            exact hfin.out
  · obtain ⟨e1, e2⟩ := HTM.out hneg
    rw [e1, decide_eq_false hneg] at HCT
    rw [e2] at HTP
    rw [decide_eq_false hneg] at hpn
    clear HTT HTM e1 e2 hneg
    generalize hPo : PfP s.data.toList b w = Po at *
    clear hPo
    generalize restT s = t at *
    go_enter Try.func9, Try.ntmps9
    go_wp2_with fail
    refine HB.out.mono ?_
    rintro e w1 ⟨rfl, rfl⟩
    go_wp2_with fail
    refine HCT.out.mono ?_
    rintro e w1 ⟨rfl, rfl⟩
    go_wp2_with fail
    refine HTP.out.mono ?_
    rintro e w1 ⟨rfl, rfl⟩
    by_cases h0 : t.size = 0
    · have hfin := Lib.hid (hBad.out w (Below.refl _ _) (.inl h0))
      have hte : t.toList = [] := by rw [Lib.toList_data]; exact List.eq_nil_of_length_eq_zero (by rw [← Lib.size_eq]; exact h0)
      clear h0
      go_wp2
      exact hfin.out
    · have hte : t.toList.isEmpty = false := by
        cases h : t.toList.isEmpty with
        | false => rfl
        | true => exact absurd (by rw [List.isEmpty_iff, Lib.toList_data] at h; have := congrArg List.length h; rw [← Lib.size_eq] at this; exact this) h0
      have h0h := Lib.hid h0
      clear h0
      go_wp2_with (at_make; refine make_bytes _ rfl _ _ 26 rfl Try.underlying26 _ _ t.size rfl rfl ?n1 ?n2 ?n3 ?_)
      case n1 => rfl
      case n2 => rfl
      case n3 => omega
      intro w1 hrow hb1
      generalize hgg : w.heap.size = g at *
      have hgh := Lib.hid hgg
      clear hgg
      go_wp2
      go_loopw [31] (fun i wr => ∃ (k : Nat) (R : List UInt8), k ≤ t.size ∧ i = .int .i64 k ∧ Hid (Digk t.data.toList R k ∧ ∀ i, i < k → dgc (t.data.toList.getD i 0) < b) ∧ Row wr g 5 R ∧ Below g w wr) (fun i _ => t.size - (intOf i).toNat)
      case atStart => exact ⟨0, List.replicate t.size 0, Nat.zero_le _, rfl, ⟨⟨by rw [htl.out]; simp, fun i hi => absurd hi (Nat.not_lt_zero _)⟩, fun i hi => absurd hi (Nat.not_lt_zero _)⟩, hrow, hb1⟩
      case round =>
        clear hrow hb1
        obtain ⟨k, R, hk, rfl, HR, hrow, hbel⟩ := hrel
        by_cases hlt : k < t.size
        · have hgd := getD_byte t k hlt
          by_cases hok : dgc (t.data.toList.getD k 0) < b
          · have HS := Lib.hid (digk_step t.data.toList R k (by have := htl.out; omega) HR.out.1)
            have HA : Hid (∀ i, i < k + 1 → dgc (t.data.toList.getD i 0) < b) := fun i hi => by
              by_cases e : i = k
              · rw [e]; exact hok
              · exact HR.out.2 i (by omega)
            have hRl : Hid (R.length = t.size) := HR.out.1.1.trans htl.out
            have hcell := hrow.cell k (by have := hRl.out; omega)
            have hfree := hrow.free k
            have HROW := Lib.hid hrow
            have hkR : k < R.length := by have := hRl.out; omega
            rw [hgd] at hok HS
            have hD := Lib.hid (HDO.out t[k] wr (by omega))
            clear hgd hrow HR
            generalize hdd : dgc t[k] = d at *
            clear hdd
            go_wp2_with fail
            refine hD.out.mono ?_
            rintro e w2 ⟨rfl, rfl⟩
            go_wp2
            go_roundw
            case rel => exact ⟨k + 1, R.set k (UInt8.ofNat d), by omega, by go_num, ⟨HS.out, HA.out⟩, HROW.out.put k d _ hkR (by omega) (by omega), hbel.setCell (Nat.le_refl _) _⟩
            case measure => simp [intOf]; omega
          · have hfin := Lib.hid (hBad.out wr hbel (.inr ⟨k, hlt, by omega⟩))
            rw [hgd] at hok
            clear hgd hrow HR
            by_cases h16 : dgc t[k] < 16
            · have hD := Lib.hid (HDO.out t[k] wr h16)
              generalize hdd : dgc t[k] = d at *
              clear hdd
              go_wp2_with fail
              refine hD.out.mono ?_
              rintro e w2 ⟨rfl, rfl⟩
              go_wp2
              exact hfin.out
            · have hD := Lib.hid (HDN.out t[k] wr h16)
              clear h16 hok
              go_wp2_with fail
              refine hD.out.mono ?_
              rintro e w2 ⟨rfl, rfl⟩
              go_wp2
              exact hfin.out
        · have hke : k = t.size := by omega
          have hkl : (t.size : Int) ≤ k := by omega
          have hRe := digk_end t.data.toList R k (by have := htl.out; omega) HR.out.1
          have hall := HR.out.2
          rw [hke] at hall
          rw [hRe] at hrow
          have hgd := Lib.hid (fun e w' => hGood.out e w' h0h.out hall)
          have hrb := Lib.hid hrow.rb
          clear hke hRe hall HR hrow hBad hGood
          by_cases hV : (E 10 (vm b (pdig t.data.toList))).length ≤ 400
          · have hT := HTO.out false (some ⟨g, 0, none⟩) t.size wr hrb.out hV
            rw [hpl.out] at hT
            have hTh := Lib.hid hT
            have hP : Hid (∀ w', Below wr.heap.size wr w' → Po (.returned (.tuple #[.string (TB (zi false (vm b (pdig t.data.toList)))), .int .i64 0])) w') := fun w' hb => hgd.out _ w' (fun _ => by rw [hpn.out]; exact ⟨rfl, by rw [hgh.out]; exact hbel.trans (hb.mono (by have := hgh.out; have := hbel.size; omega))⟩) (fun h => absurd hV (by omega))
            clear hT hV hgd HTO HTL
            generalize hzz : zi false (vm b (pdig t.data.toList)) = zz at *
            clear hzz
            go_wp2_with fail
            refine hTh.out.mono ?_
            rintro e w2 ⟨rfl, hb2⟩
            have hfin := Lib.hid (hP.out w2 hb2)
            clear hb2
            go_wp2
            exact hfin.out
          · have hT := HTL.out false (some ⟨g, 0, none⟩) t.size wr hrb.out (by omega)
            rw [hpl.out] at hT
            have hTh := Lib.hid hT
            have hP : Hid (∀ w', Below wr.heap.size wr w' → Po (.returned (.tuple #[.string ⟨#[]⟩, .int .i64 6])) w') := fun w' hb => hgd.out _ w' (fun h => absurd h hV) (fun _ => ⟨rfl, by rw [hgh.out]; exact hbel.trans (hb.mono (by have := hgh.out; have := hbel.size; omega))⟩)
            clear hT hV hgd HTO HTL
            go_wp2_with fail
            refine hTh.out.mono ?_
            rintro e w2 ⟨rfl, hb2⟩
            have hfin := Lib.hid (hP.out w2 hb2)
            clear hb2
            go_wp2
            exact hfin.out
end Go.Proofs.Ytmnopohjnbpinab
