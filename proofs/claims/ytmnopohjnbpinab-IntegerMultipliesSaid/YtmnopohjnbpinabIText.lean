/-
  Helper: the walk of number.inBase.
-/
import Derived.Test.YtmnopohjnbpinabISign
import Derived.Test.YtmnopohjnbpinabIBase2
import Derived.Laws.IdiomStrings
import Derived.Laws.BytesArg
namespace Go.Proofs.Ytmnopohjnbpinab
open Go.RowKit
set_option linter.unusedVariables false

/-- a text comes back -/
def TxtP (l : List UInt8) (w : World) (e : Ending) (w' : World) : Prop := e = .returned (.string ⟨l.toArray⟩) ∧ Below w.heap.size w w'
theorem conv_rb {w : World} {a : Option Addr} {l : List UInt8} (h : Rb w a l) (cap : Nat) : (convert 26 9 (.slice a l.length cap)).run Try.prog w = .ok (.string ⟨l.toArray⟩) w := by
  cases a with
  | none =>
    have hl : l = [] := by
      rcases h with h | ⟨b, off, h, _⟩
      · exact h
      · cases h
    subst hl
    exact run_convert_bytes_nil w 26 5 Try.underlying26 Try.underlying5 0 cap 9 Try.underlying9
  | some ad =>
    refine run_convert_bytes_back w 26 9 5 ad cap l Try.underlying26 Try.underlying5 Try.underlying9 (fun j hj => ?_)
    obtain ⟨ad', he, hc⟩ := rb_src h (by omega)
    cases he
    refine hc j _ ?_
    rw [bytes_get l j hj, List.getD_eq_getElem?_getD, List.getElem?_eq_getElem hj]; rfl
theorem fi0 (w : World) : (Instr.index 9 (.string ⟨#[48, 49, 50, 51, 52, 53, 54, 55, 56, 57, 97, 98, 99, 100, 101, 102]⟩) (.int .u8 0)).run Try.prog w = .ok (.int .u8 48) w := by kernel_rfl
theorem fi1 (w : World) : (Instr.index 9 (.string ⟨#[48, 49, 50, 51, 52, 53, 54, 55, 56, 57, 97, 98, 99, 100, 101, 102]⟩) (.int .u8 1)).run Try.prog w = .ok (.int .u8 49) w := by kernel_rfl
theorem fi2 (w : World) : (Instr.index 9 (.string ⟨#[48, 49, 50, 51, 52, 53, 54, 55, 56, 57, 97, 98, 99, 100, 101, 102]⟩) (.int .u8 2)).run Try.prog w = .ok (.int .u8 50) w := by kernel_rfl
theorem fi3 (w : World) : (Instr.index 9 (.string ⟨#[48, 49, 50, 51, 52, 53, 54, 55, 56, 57, 97, 98, 99, 100, 101, 102]⟩) (.int .u8 3)).run Try.prog w = .ok (.int .u8 51) w := by kernel_rfl
theorem fi4 (w : World) : (Instr.index 9 (.string ⟨#[48, 49, 50, 51, 52, 53, 54, 55, 56, 57, 97, 98, 99, 100, 101, 102]⟩) (.int .u8 4)).run Try.prog w = .ok (.int .u8 52) w := by kernel_rfl
theorem fi5 (w : World) : (Instr.index 9 (.string ⟨#[48, 49, 50, 51, 52, 53, 54, 55, 56, 57, 97, 98, 99, 100, 101, 102]⟩) (.int .u8 5)).run Try.prog w = .ok (.int .u8 53) w := by kernel_rfl
theorem fi6 (w : World) : (Instr.index 9 (.string ⟨#[48, 49, 50, 51, 52, 53, 54, 55, 56, 57, 97, 98, 99, 100, 101, 102]⟩) (.int .u8 6)).run Try.prog w = .ok (.int .u8 54) w := by kernel_rfl
theorem fi7 (w : World) : (Instr.index 9 (.string ⟨#[48, 49, 50, 51, 52, 53, 54, 55, 56, 57, 97, 98, 99, 100, 101, 102]⟩) (.int .u8 7)).run Try.prog w = .ok (.int .u8 55) w := by kernel_rfl
theorem fi8 (w : World) : (Instr.index 9 (.string ⟨#[48, 49, 50, 51, 52, 53, 54, 55, 56, 57, 97, 98, 99, 100, 101, 102]⟩) (.int .u8 8)).run Try.prog w = .ok (.int .u8 56) w := by kernel_rfl
theorem fi9 (w : World) : (Instr.index 9 (.string ⟨#[48, 49, 50, 51, 52, 53, 54, 55, 56, 57, 97, 98, 99, 100, 101, 102]⟩) (.int .u8 9)).run Try.prog w = .ok (.int .u8 57) w := by kernel_rfl
theorem fi10 (w : World) : (Instr.index 9 (.string ⟨#[48, 49, 50, 51, 52, 53, 54, 55, 56, 57, 97, 98, 99, 100, 101, 102]⟩) (.int .u8 10)).run Try.prog w = .ok (.int .u8 97) w := by kernel_rfl
theorem fi11 (w : World) : (Instr.index 9 (.string ⟨#[48, 49, 50, 51, 52, 53, 54, 55, 56, 57, 97, 98, 99, 100, 101, 102]⟩) (.int .u8 11)).run Try.prog w = .ok (.int .u8 98) w := by kernel_rfl
theorem fi12 (w : World) : (Instr.index 9 (.string ⟨#[48, 49, 50, 51, 52, 53, 54, 55, 56, 57, 97, 98, 99, 100, 101, 102]⟩) (.int .u8 12)).run Try.prog w = .ok (.int .u8 99) w := by kernel_rfl
theorem fi13 (w : World) : (Instr.index 9 (.string ⟨#[48, 49, 50, 51, 52, 53, 54, 55, 56, 57, 97, 98, 99, 100, 101, 102]⟩) (.int .u8 13)).run Try.prog w = .ok (.int .u8 100) w := by kernel_rfl
theorem fi14 (w : World) : (Instr.index 9 (.string ⟨#[48, 49, 50, 51, 52, 53, 54, 55, 56, 57, 97, 98, 99, 100, 101, 102]⟩) (.int .u8 14)).run Try.prog w = .ok (.int .u8 101) w := by kernel_rfl
theorem fi15 (w : World) : (Instr.index 9 (.string ⟨#[48, 49, 50, 51, 52, 53, 54, 55, 56, 57, 97, 98, 99, 100, 101, 102]⟩) (.int .u8 15)).run Try.prog w = .ok (.int .u8 102) w := by kernel_rfl
theorem fig_index (c : UInt8) (h : c.toNat < 16) (w : World) : (Instr.index 9 (.string ⟨#[48, 49, 50, 51, 52, 53, 54, 55, 56, 57, 97, 98, 99, 100, 101, 102]⟩) (.int .u8 (c.toNat : Int))).run Try.prog w = .ok (.int .u8 ((fig c).toNat : Int)) w := by
  obtain ⟨x, hx⟩ : ∃ x, c.toNat = x := ⟨_, rfl⟩
  have hc : c = UInt8.ofNat x := by rw [← hx, UInt8.ofNat_toNat]
  rw [hx] at h
  subst hc
  rcases (show x = 0 ∨ x = 1 ∨ x = 2 ∨ x = 3 ∨ x = 4 ∨ x = 5 ∨ x = 6 ∨ x = 7 ∨ x = 8 ∨ x = 9 ∨ x = 10 ∨ x = 11 ∨ x = 12 ∨ x = 13 ∨ x = 14 ∨ x = 15 by omega) with rfl | rfl | rfl | rfl | rfl | rfl | rfl | rfl | rfl | rfl | rfl | rfl | rfl | rfl | rfl | rfl
  · exact fi0 w
  · exact fi1 w
  · exact fi2 w
  · exact fi3 w
  · exact fi4 w
  · exact fi5 w
  · exact fi6 w
  · exact fi7 w
  · exact fi8 w
  · exact fi9 w
  · exact fi10 w
  · exact fi11 w
  · exact fi12 w
  · exact fi13 w
  · exact fi14 w
  · exact fi15 w
/-- the first k places written over -/
def Mapk (l R : List UInt8) (k : Nat) : Prop := R.length = l.length ∧ ∀ i, i < l.length → R.getD i 0 = if i < k then fig (l.getD i 0) else l.getD i 0
theorem mapk_zero (l : List UInt8) : Mapk l l 0 := ⟨rfl, fun i hi => by rw [if_neg (by omega)]⟩
theorem mapk_step (l R : List UInt8) (k : Nat) (hk : k < l.length) (h : Mapk l R k) : Mapk l (R.set k (fig (R.getD k 0))) (k + 1) := by
  obtain ⟨h1, h2⟩ := h
  refine ⟨by simp [h1], fun i hi => ?_⟩
  rw [getD_set _ _ _ _ (by omega)]
  by_cases e : k = i
  · rw [if_pos e, if_pos (by omega), h2 k hk, if_neg (by omega), e]
  · rw [if_neg e, h2 i hi]
    by_cases e2 : i < k
    · rw [if_pos e2, if_pos (by omega)]
    · rw [if_neg e2, if_neg (by omega)]
theorem mapk_end (l R : List UInt8) (k : Nat) (hk : l.length ≤ k) (h : Mapk l R k) : R = l.map fig := by
  obtain ⟨h1, h2⟩ := h
  refine List.ext_getElem (by simp [h1]) fun i g1 g2 => ?_
  have := h2 i (by omega)
  rw [if_pos (by omega), List.getD_eq_getElem?_getD, List.getElem?_eq_getElem g1, List.getD_eq_getElem?_getD, List.getElem?_eq_getElem (show i < l.length by omega)] at this
  rw [List.getElem_map]; exact this
theorem mapk_at (l R : List UInt8) (k : Nat) (hk : k < l.length) (h : Mapk l R k) : R.getD k 0 = l.getD k 0 := by rw [h.2 k hk, if_neg (by omega)]
theorem isZero_nat (n : Nat) (a : Option Addr) (cap : Nat) (w : World) (b : Bool) (hs : (E 10 n).length ≤ 1000000) :
    Calls Try.prog 59 #[.agg #[.bool b, .slice a (E 10 n).length cap]] w fun e w' => e = .returned (.bool (decide (n = 0))) ∧ Below w.heap.size w w' := by
  have := isZero_any (n : Int) a cap w b (by simpa using hs)
  simpa using this
theorem Ow.rb {w : World} {B g n cap : Nat} {l : List UInt8} (h : Ow w B g n cap l) : Rb w (some ⟨g, 0, none⟩) l :=
  .inr ⟨g, 0, rfl, h.lt.2, fun i hi => by rw [Nat.zero_add]; exact h.cell i (by rw [← h.len]; exact hi)⟩
theorem Ow.go {w w' : World} {B g n cap : Nat} {l : List UInt8} (h : Ow w B g n cap l) (hb : Below w.heap.size w w') : Ow w' B g n cap l := owns_go h hb (Nat.le_refl _)

set_option maxRecDepth 100000 in
set_option maxHeartbeats 4000000 in
theorem numtext_nz (bn : Bool) (n b : Nat) (hn : n ≠ 0) (hb : 2 ≤ b) (hb2 : b ≤ 16) (a : Option Addr) (cap : Nat) (w : World) (hr : Rb w a (E 10 n)) (hs : (E 10 n).length ≤ 100000) (hsb : (E b n).length ≤ 900000) :
    Calls Try.prog 47 #[.agg #[.bool bn, .slice a (E 10 n).length cap], .int .i64 (b : Int)] w (TxtP ((if bn then [45] else []) ++ (E b n).reverse.map fig) w) := by
  have HI : Hid (∀ W, Below w.heap.size w W → Calls Try.prog 61 #[.slice a (E 10 n).length cap, .int .i64 (b : Int)] W (BytP (E b n).reverse W)) := fun W h => nInBase_any n b hb (by omega) a cap W (hr.go h) hs (by omega)
  have HZ : Hid (∀ W, Calls Try.prog 59 #[.agg #[.bool bn, .slice a (E 10 n).length cap]] W fun e w' => e = .returned (.bool false) ∧ Below W.heap.size W w') := fun W => by
    have := isZero_nat n a cap W bn (by omega)
    rw [decide_eq_false hn] at this; exact this
  have HL : Hid ((E b n).reverse.length = (E b n).length ∧ ∀ i, i < (E b n).reverse.length → ((E b n).reverse.getD i 0).toNat < 16) := ⟨List.length_reverse, fun i hi => by
    have h := dg_getD b (by omega) (E b n).reverse (fun c hc => dg_E b n hb (by omega) c (List.mem_reverse.1 hc)) i
    omega⟩
  have hne : (E b n).reverse.length ≠ 0 := by
    rw [List.length_reverse]; intro h; exact hn ((E_nil b n hb).1 (List.length_eq_zero_iff.1 h))
  have hne2 := Lib.hid hne
  have hsl : (E b n).reverse.length ≤ 900000 := by rw [List.length_reverse]; exact hsb
  have HFI := Lib.hid fig_index
  clear hr hn hsb hne
  generalize (E b n).reverse = l at *
  generalize hll : l.length = L at *
  have hLh := Lib.hid hll
  clear hll
  have HF : Hid (∀ s w', s = (if bn then [45] else []) ++ l.map fig → Below w.heap.size w w' → TxtP ((if bn then [45] else []) ++ l.map fig) w (.returned (.string ⟨s.toArray⟩)) w') := fun s w' h1 h2 => ⟨by rw [h1], h2⟩
  generalize hPo : TxtP ((if bn then [45] else []) ++ l.map fig) w = Po at *
  clear hPo
  generalize (E 10 n).length = ln at *
  go_enter Try.func47, Try.ntmps47
  go_wp2_with fail
  have hb0 : Below w.heap.size w (w.alloc (.cells #[.bool bn, .slice a ln cap] 70)) := (Below.refl _ w).alloc (Nat.le_refl _) _
  refine (HI.out _ hb0).mono ?_
  rintro e w1 ⟨v, rfl, ho, hb1⟩
  rw [hLh.out] at ho
  obtain ⟨g, cp, rfl⟩ : ∃ g cp, v = .slice (some ⟨g, 0, none⟩) L cp := by
    rcases ho.2 with ⟨_, h⟩ | ⟨g, cp, _, h, _⟩
    · exact absurd h hne2.out
    · exact ⟨g, cp, h⟩
  have hbox := (hb1.block w.heap.size (by simp)).trans (heap_alloc_new w (.cells #[.bool bn, .slice a ln cap] 70))
  have hO : Hid (Ow w1 (w.heap.size + 1) g L cp l) := by
    have : (w.alloc (.cells #[.bool bn, .slice a ln cap] 70)).heap.size = w.heap.size + 1 := by simp
    rw [this] at ho; exact ho
  have hbel1 : Hid (Below (w.heap.size + 1) (w.alloc (.cells #[.bool bn, .slice a ln cap] 70)) w1) := hb1.mono (by simp)
  have hg1 := hO.out.lt
  have HBX : Hid (∀ W, Below (w.heap.size + 1) (w.alloc (.cells #[.bool bn, .slice a ln cap] 70)) W → W.cell? ⟨w.heap.size, 0, none⟩ = some (.bool bn) ∧ W.cell? ⟨w.heap.size, 1, none⟩ = some (.slice a ln cap) ∧ Below w.heap.size w W) := fun W h => by
    have h2 := (h.block w.heap.size (by omega)).trans (heap_alloc_new w (.cells #[.bool bn, .slice a ln cap] 70))
    exact ⟨by simp [World.cell?, h2], by simp [World.cell?, h2], hb0.trans (h.mono (by omega))⟩
  generalize w.alloc (.cells #[.bool bn, .slice a ln cap] 70) = Wb at *
  generalize hnw : w.heap.size = n0 at *
  clear ho hb1 hbox hnw
  go_wp2
  go_loopw [14] (fun i wr => ∃ (k : Nat) (R : List UInt8), k ≤ L ∧ i = .int .i64 k ∧ Hid (Mapk l R k ∧ Ow wr (n0 + 1) g L cp R) ∧ Below (n0 + 1) Wb wr) (fun i _ => L - (intOf i).toNat)
  case atStart => exact ⟨0, l, Nat.zero_le _, rfl, ⟨mapk_zero l, hO.out⟩, hbel1.out⟩
  case round =>
    obtain ⟨k, R, hk, rfl, HR, hbel⟩ := hrel
    by_cases hlt : k < L
    · have ck := HR.out.2.cell k hlt
      have fk := HR.out.2.free k
      have hat := mapk_at l R k (by have := hLh.out; omega) HR.out.1
      have h16 := HL.out.2 k hlt
      rw [← hat] at h16
      have HS := Lib.hid (mapk_step l R k (by have := hLh.out; omega) HR.out.1)
      clear hat
      generalize hc : R.getD k 0 = c at *
      clear hc
      have hix := HFI.out c h16 wr
      have hb256 : (fig c).toNat < 256 := UInt8.toNat_lt _
      have hFO := Lib.hid HR.out.2
      go_wp2
      go_roundw
      case rel => exact ⟨k + 1, R.set k (fig c), by omega, by go_num, ⟨HS.out, hFO.out.put k _ _ rfl⟩, hbel.setCell hg1.1 _⟩
      case measure => simp [intOf]; omega
    · have hRe := mapk_end l R k (by have := hLh.out; omega) HR.out.1
      have hO2 := HR.out.2
      rw [hRe] at hO2
      obtain ⟨x0, x1, hbw⟩ := HBX.out wr hbel
      have hO3 := Lib.hid hO2
      have hml : Hid ((l.map fig).length = L) := hO2.len
      have hkl : (L : Int) ≤ k := by omega
      have hszr := hbel.size
      clear hRe hO2 HR HL HI
      generalize l.map fig = m at *
      cases bn with
      | false =>
        go_wp2_with fail
        refine (HZ.out _).mono ?_
        rintro e w2 ⟨rfl, hb2⟩
        obtain ⟨y0, y1, _⟩ := HBX.out w2 (hbel.trans (hb2.mono (by have := hO3.out.lt; omega)))
        have hcv := conv_rb (hO3.out.go hb2).rb cp
        rw [hml.out] at hcv
        have hfin := Lib.hid (HF.out m w2 (by simp) (hbw.trans (hb2.mono (by have := hO3.out.lt; omega))))
        go_wp2
        exact hfin.out
      | true =>
        go_wp2_with fail
        refine (HZ.out _).mono ?_
        rintro e w2 ⟨rfl, hb2⟩
        obtain ⟨y0, y1, hbw2⟩ := HBX.out w2 (hbel.trans (hb2.mono (by have := hO3.out.lt; omega)))
        have hO4 := Lib.hid (hO3.out.go hb2)
        have hL1 : 0 < L := by have := hne2.out; omega
        clear x0 x1
        go_wp2_with (at_make; refine make_bytes _ rfl _ _ 26 rfl Try.underlying26 _ _ (L + 1) rfl rfl ?c1 ?c2 ?c3 ?_)
        case c1 => omega
        case c2 => omega
        case c3 => omega
        intro w3 hrow hb3
        have hfree := hrow.free 0
        have hcell := hrow.cell 0 (by simp)
        have hrow2 := Lib.hid (hrow.set 0 45 (by simp))
        have hO5 := Lib.hid (hO4.out.go hb3)
        have hRL : Hid (((List.replicate (L + 1) (0 : UInt8)).set 0 45).length = L + 1) := by show _ = _; simp
        have HR2 : Hid (((List.replicate (L + 1) (0 : UInt8)).set 0 45).take 1 ++ (m ++ ((List.replicate (L + 1) (0 : UInt8)).set 0 45).drop (1 + m.length)) = 45 :: m) := by
          show _ = _
          rw [List.replicate_succ, List.set_cons_zero, List.take_succ_cons, List.take_zero, List.drop_eq_nil_of_le (by have := hml.out; simp; omega)]; simp
        generalize (List.replicate (L + 1) (0 : UInt8)).set 0 45 = R2 at *
        have hg4 := hO4.out.lt
        generalize hG : w2.heap.size = G at *
        have hGh := Lib.hid hG
        clear hG
        have hbb3 : Below G w2 (w3.setCell ⟨G, 0, none⟩ (.int .u8 45)) := hb3.setCell (Nat.le_refl _) _
        have hrb5 : Hid (Rb (w3.setCell ⟨G, 0, none⟩ (.int .u8 45)) (some ⟨g, 0, none⟩) m) := hO5.out.rb.store G 0 _ (fun ad e => by cases e; show g ≠ G; omega)
        go_wp2_with ((with_reducible show wpList _ _ _ _ _ _); refine copy_bytes rfl (.tmp 41) (.tmp 42) 26 26 rfl Try.underlying26 _ _ _ _ _ _ rfl rfl G 1 R2 m hrow2 ?m1 ?m2 ?m3 G w2 hbb3 (Nat.le_refl _) ?_)
        case m1 => (have := hml.out; rw [this]; simp)
        case m2 => first | exact fun _ => hrb5.out | exact fun _ => ⟨rfl, hrb5.out⟩
        case m3 => have := hml.out; have := hRL.out; omega
        intro w4 hr4 hb4
        have hr5 := hr4.out
        rw [HR2.out] at hr5
        have hcv := conv_rb hr5.rb (L + 1)
        have hl5 : (45 :: m).length = L + 1 := by rw [List.length_cons, hml.out]
        rw [hl5] at hcv
        have hfin := Lib.hid (HF.out (45 :: m) w4 (by simp) (hbw2.trans (hb4.mono (by omega))))
        clear hr5 hl5
        go_wp2
        exact hfin.out

set_option maxRecDepth 100000 in
set_option maxHeartbeats 2000000 in
theorem numtext_zero (b : Nat) (hb : 2 ≤ b) (hb2 : b ≤ 16) (a : Option Addr) (cap : Nat) (w : World) :
    Calls Try.prog 47 #[.agg #[.bool false, .slice a 0 cap], .int .i64 (b : Int)] w (TxtP [48] w) := by
  have HI : Hid (∀ W, Calls Try.prog 61 #[.slice a 0 cap, .int .i64 (b : Int)] W (BytP [] W)) := fun W => by
    have := nInBase_any 0 b hb (by omega) a cap W (Rb.nil W a) (by decide) (by rw [E_zero]; decide)
    exact this
  have HZ : Hid (∀ W, Calls Try.prog 59 #[.agg #[.bool false, .slice a 0 cap]] W fun e w' => e = .returned (.bool true) ∧ Below W.heap.size W w') := fun W => isZero_nat 0 a cap W false (by decide)
  have HF : Hid (∀ w', Below w.heap.size w w' → TxtP [48] w (.returned (.string ⟨[48].toArray⟩)) w') := fun w' h2 => ⟨rfl, h2⟩
  generalize TxtP [48] w = Po at *
  go_enter Try.func47, Try.ntmps47
  go_wp2_with fail
  have hb0 : Below w.heap.size w (w.alloc (.cells #[.bool false, .slice a 0 cap] 70)) := (Below.refl _ w).alloc (Nat.le_refl _) _
  refine (HI.out _).mono ?_
  rintro e w1 ⟨v, rfl, ho, hb1⟩
  obtain ⟨va, vc, hv⟩ := World.ownsRow.isSlice ho
  have hbox := (hb1.block w.heap.size (by simp)).trans (heap_alloc_new w (.cells #[.bool false, .slice a 0 cap] 70))
  have hbw : Below w.heap.size w w1 := hb0.trans (hb1.mono (by simp))
  have x0 : w1.cell? ⟨w.heap.size, 0, none⟩ = some (.bool false) := by simp [World.cell?, hbox]
  have x1 : w1.cell? ⟨w.heap.size, 1, none⟩ = some (.slice a 0 cap) := by simp [World.cell?, hbox]
  have hlt : w.heap.size < w1.heap.size := by have := hb1.size; simp at this; omega
  subst hv
  clear ho hb1 hbox hb0
  go_wp2
  go_loopw [14] (fun i wr => i = .int .i64 0 ∧ wr = w1) (fun _ _ => 0)
  case atStart => exact ⟨rfl, rfl⟩
  case round =>
    obtain ⟨rfl, rfl⟩ := hrel
    go_wp2_with fail
    refine (HZ.out _).mono ?_
    rintro e w2 ⟨rfl, hb2⟩
    have y0 : w2.cell? ⟨w.heap.size, 0, none⟩ = some (.bool false) := (hb2.cell (p := ⟨w.heap.size, 0, none⟩) hlt).trans x0
    have hs2 := hb2.size
    have y0' : (w2.alloc (.cells #[.int .u8 48] 5)).cell? ⟨w.heap.size, 0, none⟩ = some (.bool false) := by rw [World.cell?_alloc_past _ _ _ (by show w.heap.size < _; omega)]; exact y0
    have hcv := conv_rb (Row.new w2 5 [48]).rb 1
    have hfin := Lib.hid (HF.out (w2.alloc (.cells #[.int .u8 48] 5)) ((hbw.trans (hb2.mono (by omega))).alloc (by omega) _))
    have hcv2 : (convert 26 9 (.slice (some ⟨w2.heap.size, 0, none⟩) 1 1)).run Try.prog (w2.alloc (.cells #[.int .u8 48] 5)) = .ok (.string ⟨#[48]⟩) (w2.alloc (.cells #[.int .u8 48] 5)) := hcv
    clear hcv x0 x1 y0
    go_wp2
    exact hfin.out
/-- a number's text in a base -/
theorem numtext_any (z : Int) (b : Nat) (hb : 2 ≤ b) (hb2 : b ≤ 16) (a : Option Addr) (cap : Nat) (w : World) (hr : Rb w a (E 10 z.natAbs)) (hs : (E 10 z.natAbs).length ≤ 100000) (hsb : (E b z.natAbs).length ≤ 900000) :
    Calls Try.prog 47 #[.agg #[.bool (neg z), .slice a (E 10 z.natAbs).length cap], .int .i64 (b : Int)] w (TxtP (Tb b z) w) := by
  by_cases h : z = 0
  · subst h
    exact numtext_zero b hb hb2 a cap w
  · have := numtext_nz (neg z) z.natAbs b (by omega) hb hb2 a cap w hr hs hsb
    have e : Tb b z = (if neg z then [45] else []) ++ (E b z.natAbs).reverse.map fig := by
      unfold Tb body neg
      rw [if_neg (show ¬ z.natAbs = 0 by omega)]
      by_cases h0 : z < 0
      · simp [h0]
      · simp [h0]
    rw [e]; exact this
end Go.Proofs.Ytmnopohjnbpinab
