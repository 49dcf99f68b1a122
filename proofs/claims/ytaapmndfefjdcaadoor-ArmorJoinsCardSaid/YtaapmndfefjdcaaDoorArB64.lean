/-
  Helper: the walk of Base64.
-/
import Derived.Test.YtaapmndfefjdcaaDoorArGrp
import Derived.Deep.QuietTactic
import Derived.Deep.RegionWith
import Derived.Lib.LazyBuf
import Derived.Lib.SlBuf
namespace Go.Proofs.YtaapmndfefjdcaaDoor
open Go.RowKit
set_option linter.unusedVariables false

/-- a slice of bytes that a call owns, at the head of block g -/
def Ow (w : World) (B g n cap : Nat) (l : List UInt8) : Prop := w.ownsRow B 5 1 (.slice (some ⟨g, 0, none⟩) n cap) n (bytes l)
theorem Ow.len {w : World} {B g n cap : Nat} {l : List UInt8} (h : Ow w B g n cap l) : l.length = n := by have := h.1; rw [bytes_len, Nat.mul_one] at this; exact this
theorem Ow.lt {w : World} {B g n cap : Nat} {l : List UInt8} (h : Ow w B g n cap l) : B ≤ g ∧ g < w.heap.size := World.ownsRow.lt h g rfl
theorem Ow.cell {w : World} {B g n cap : Nat} {l : List UInt8} (h : Ow w B g n cap l) (i : Nat) (hi : i < n) : w.cell? ⟨g, i, none⟩ = some (.int .u8 ((l.getD i 0).toNat : Int)) := by
  have := World.ownsRow.cellAt h i (by omega)
  rw [this]; exact bytes_get l i (by have := h.len; omega)
theorem Ow.free {w : World} {B g n cap : Nat} {l : List UInt8} (h : Ow w B g n cap l) (i : Nat) : w.frozen? ⟨g, i, none⟩ = false := World.ownsRow.frozenAt h i
theorem Ow.put {w : World} {B g n cap : Nat} {l : List UInt8} (h : Ow w B g n cap l) (i : Nat) (z : Int) (c : UInt8) (hz : z = (c.toNat : Int)) : Ow (w.setCell ⟨g, i, none⟩ (.int .u8 z)) B g n cap (l.set i c) := by
  have := (World.ownsRow.stored h i (.int .u8 z)).1
  rw [hz, bytes_set] at this
  rw [hz]; exact this
theorem own_slice {w : World} {B n : Nat} {v : Value} {l : List UInt8} (h : w.ownsRow B 5 1 v n (bytes l)) (hn : 0 < n) : ∃ g cap, v = .slice (some ⟨g, 0, none⟩) n cap ∧ n ≤ cap ∧ Ow w B g n cap l := by
  rcases h.2 with ⟨h1, h2⟩ | ⟨g, cap, cur, rfl, _, hg, hnc, _⟩
  · have := h.1; rw [h2] at this; simp at this; omega
  · exact ⟨g, cap, rfl, hnc, h⟩
theorem Ow.puts {B g n cap : Nat} : ∀ (cs : List UInt8) (w : World) (l : List UInt8) (off : Nat), Ow w B g n cap l → off + cs.length ≤ l.length → Ow (w.setCells g off (bytes cs)) B g n cap (l.take off ++ cs ++ l.drop (off + cs.length))
  | [], w, l, off, h, _ => by
    show Ow w B g n cap _
    rw [List.append_nil, List.length_nil, Nat.add_zero, List.take_append_drop]; exact h
  | c :: cs, w, l, off, h, hl => by
    simp only [List.length_cons] at hl
    have ih := Ow.puts cs _ (l.set off c) (off + 1) (h.put off _ c rfl) (by rw [List.length_set]; omega)
    have e : (l.set off c).take (off + 1) ++ cs ++ (l.set off c).drop (off + 1 + cs.length) = l.take off ++ c :: cs ++ l.drop (off + (c :: cs).length) := by
      rw [List.take_succ_eq_append_getElem (by rw [List.length_set]; omega), List.take_set_of_le (by omega), List.drop_set_of_lt (by omega), List.getElem_set_self, List.length_cons, show off + 1 + cs.length = off + (cs.length + 1) by omega]
      simp
    rw [e] at ih
    exact ih
theorem below_cells {B g : Nat} {a : World} (hb : B ≤ g) : ∀ (vs : List Value) (o : Nat) (w : World), Below B a w → Below B a (w.setCells g o vs)
  | [], _, _, h => h
  | v :: r, o, w, h => below_cells hb r (o + 1) _ (h.setCell (by exact hb) v)
/-- 'copy(row[off:], text)' at this program: the row is the call's own -/
theorem copy_text {w : World} {ops : Array Oper} {rest : List Oper} {o : Oper} {a : Act} {Q : Exit → Act → World → Prop} (hgd : o.guard = none) (d x : Operand)
    (ho : o.op = .call { callee := .builtin .copy, args := #[d, x], argTypes := #[40, 9] })
    (g off dLen dCap : Nat) (hd : a.eval d = .slice (some ⟨g, off, none⟩) dLen dCap) (t : ByteArray) (hx : a.eval x = .string t)
    (B n cap : Nat) (l : List UInt8) (how : Hid (Ow w B g n cap l)) (hle : t.size ≤ dLen) (hfit : off + t.size ≤ n) (w0 : World) (hb : Below B w0 w)
    (h : ∀ w', Ow w' B g n cap (l.take off ++ t.data.toList ++ l.drop (off + t.size)) → Below B w0 w' → wpList Tryd.prog ops Q rest (a.put o.dst (goInt t.size)) w') :
    wpList Tryd.prog ops Q (o :: rest) a w := by
  have hts : t.data.toList.length = t.size := by simp
  have hlen := how.out.len
  refine Lib.wpList_copy_run w hgd d x 40 9 ho _ _ hd hx (Go.run_copy_string (P := Tryd.prog) w 40 9 o.type 5 g off dLen dCap t Tryd.underlying40 (fun w => by kernel_rfl) hle (fun j hj => ?_) (fun j hj => how.out.free _)) (h _ ?_ ?_)
  · rw [how.out.cell (off + j) (by omega)]; rfl
  · have := Ow.puts t.data.toList w l off how.out (by omega)
    rw [hts] at this; exact this
  · exact below_cells how.out.lt.1 _ _ _ hb
theorem b64A_three (a b c : UInt8) (r : List UInt8) : b64A (a :: b :: c :: r) = g4 a.toNat b.toNat c.toNat ++ b64A r := rfl
/-- the groups of three that are written, and the rest -/
theorem drop_three (l : List UInt8) (k : Nat) (h : k + 3 ≤ l.length) : l.drop k = l.getD k 0 :: l.getD (k + 1) 0 :: l.getD (k + 2) 0 :: l.drop (k + 3) := by
  have e : ∀ j, j < l.length → l.drop j = l.getD j 0 :: l.drop (j + 1) := fun j hj => by
    rw [List.drop_eq_getElem_cons hj, List.getD_eq_getElem?_getD, List.getElem?_eq_getElem hj]; rfl
  rw [e k (by omega), e (k + 1) (by omega), e (k + 2) (by omega)]
theorem b64_take (l : List UInt8) (k : Nat) (h : 3 * k + 3 ≤ l.length) : b64A (l.take (3 * (k + 1))) = b64A (l.take (3 * k)) ++ g4 (l.getD (3 * k) 0).toNat (l.getD (3 * k + 1) 0).toNat (l.getD (3 * k + 2) 0).toNat := by
  have e : l.take (3 * (k + 1)) = l.take (3 * k) ++ [l.getD (3 * k) 0, l.getD (3 * k + 1) 0, l.getD (3 * k + 2) 0] := by
    rw [show 3 * (k + 1) = 3 * k + 3 by omega, List.take_add, drop_three l (3 * k) h]; rfl
  rw [e, b64A_app _ _ (by rw [List.length_take, Nat.min_eq_left (by omega)]; omega), b64A_three]
  simp [b64A]
theorem b64_split (l : List UInt8) (k : Nat) (h : 3 * k ≤ l.length) : b64A l = b64A (l.take (3 * k)) ++ b64A (l.drop (3 * k)) := by
  rw [← b64A_app _ _ (by rw [List.length_take, Nat.min_eq_left h]; omega), List.take_append_drop]
theorem ba_head (t : ByteArray) (l : List UInt8) (p i : Nat) (h : t.data.toList = l.drop p) (hi : i < t.size) : l.getD (p + i) 0 = t[i] := by
  rw [← ba_getD t i hi, h, List.getD_eq_getElem?_getD, List.getD_eq_getElem?_getD, List.getElem?_drop]
theorem ba_one (t : ByteArray) (h : t.size = 1) (l0 : 0 < t.size) : t.data.toList = [t[0]] := by
  have e := ba_getD t 0 l0
  have hl : t.data.toList.length = 1 := by simpa using h
  match hq : t.data.toList, hl with
  | [x], _ => rw [hq] at e; simpa using e
theorem ba_two (t : ByteArray) (h : t.size = 2) (l0 : 0 < t.size) (l1 : 1 < t.size) : t.data.toList = [t[0], t[1]] := by
  have e := ba_getD t 0 l0
  have e1 := ba_getD t 1 l1
  have hl : t.data.toList.length = 2 := by simpa using h
  match hq : t.data.toList, hl with
  | [x, y], _ => rw [hq] at e e1; simp at e e1; rw [e, e1]
theorem end_one (r : List UInt8) (a : UInt8) (k : Nat) (h : r.length = 4 * k) : (r ++ g4 a.toNat 0 0).take (4 * k + 2) ++ 61 :: 61 :: (r ++ g4 a.toNat 0 0).drop (4 * k + 2 + 2) = r ++ b64A [a] := by
  rw [show 4 * k + 2 = r.length + 2 by omega, List.take_append, List.drop_append, List.take_of_length_le (by omega), List.drop_eq_nil_of_le (by omega)]
  rw [show r.length + 2 - r.length = 2 by omega, show r.length + 2 + 2 - r.length = 4 by omega]
  simp [g4, b64A]
theorem end_two (r : List UInt8) (a b : UInt8) (k : Nat) (h : r.length = 4 * k) : (r ++ g4 a.toNat b.toNat 0).take (4 * k + 3) ++ 61 :: (r ++ g4 a.toNat b.toNat 0).drop (4 * k + 3 + 1) = r ++ b64A [a, b] := by
  rw [show 4 * k + 3 = r.length + 3 by omega, List.take_append, List.drop_append, List.take_of_length_le (by omega), List.drop_eq_nil_of_le (by omega)]
  rw [show r.length + 3 - r.length = 3 by omega, show r.length + 3 + 1 - r.length = 4 by omega]
  simp [g4, b64A]
theorem Ow.rb {w : World} {B g n cap : Nat} {l : List UInt8} (h : Ow w B g n cap l) : Rb w (some ⟨g, 0, none⟩) l :=
  .inr ⟨g, 0, rfl, h.lt.2, fun i hi => by rw [Nat.zero_add]; exact h.cell i (by rw [← h.len]; exact hi)⟩
set_option maxRecDepth 100000 in
set_option maxHeartbeats 4000000 in
theorem b64_any (s : ByteArray) (w : World) (hs : s.size ≤ 100000) :
    Calls Tryd.prog 16 #[.string s] w (TxtP (b64A s.data.toList) w) := by
  have hlen : s.data.toList.length = s.size := by simp
  have HT : Hid (∀ k, 3 * k + 3 ≤ s.size → b64A (s.data.toList.take (3 * (k + 1))) = b64A (s.data.toList.take (3 * k)) ++ g4 (s.data.toList.getD (3 * k) 0).toNat (s.data.toList.getD (3 * k + 1) 0).toNat (s.data.toList.getD (3 * k + 2) 0).toNat) := fun k h => b64_take _ k (by omega)
  have HF : Hid (∀ k w', 3 * k ≤ s.size → Below w.heap.size w w' → TxtP (b64A s.data.toList) w (.returned (.string ⟨(b64A (s.data.toList.take (3 * k)) ++ b64A (s.data.toList.drop (3 * k))).toArray⟩)) w') := fun k w' h hb => ⟨by rw [← b64_split _ k (by omega)], hb⟩
  have HL : Hid (∀ k, 3 * k ≤ s.size → (b64A (s.data.toList.take (3 * k))).length = 4 * k) := fun k h => by
    rw [b64A_len, List.length_take, hlen, Nat.min_eq_left h]; omega
  generalize hPo : TxtP (b64A s.data.toList) w = Po at *
  clear hPo hlen
  generalize hsl : s.data.toList = l at *
  have hs0s : Hid (Hid (s.data.toList = l.drop (3 * 0))) := by show s.data.toList = l.drop (3 * 0); rw [hsl]; rfl
  clear hsl
  go_enter Tryd.func16, Tryd.ntmps16
  go_wp2_with (at_make; refine make_room _ rfl _ _ 40 rfl Tryd.underlying40 _ ((s.size + 2) / 3 * 4) rfl rfl ?c1 ?c2 ?_)
  case c1 => omega
  case c2 => omega
  intro w1 hown0 hb0
  have hown0h := Lib.hid hown0
  clear hown0
  go_wp2
  go_loopw [0, 3] (fun sv v wr => ∃ (k : Nat) (t : ByteArray), sv = .string t ∧ t.size + 3 * k = s.size ∧ Hid (t.data.toList = l.drop (3 * k)) ∧ wr.ownsRow w.heap.size 5 1 v (4 * k) (bytes (b64A (l.take (3 * k)))) ∧ Below w.heap.size w wr) (fun sv _ _ => match sv with | .string t => t.size | _ => 0)
  case atStart => exact ⟨0, s, rfl, rfl, hs0s.out, hown0h.out, hb0⟩
  case round =>
    obtain ⟨k, t, rfl, hts, ht, hown, hbel⟩ := hrel
    by_cases hlt : 3 ≤ t.size
    · have hT := Lib.hid (HT.out k (by omega))
      have h0 : Hid (l.getD (3 * k) 0 = t[0]) := ba_head t l (3 * k) 0 ht.out (by omega)
      have h1 := Lib.hid (ba_head t l (3 * k) 1 ht.out (by omega))
      have h2 := Lib.hid (ba_head t l (3 * k) 2 ht.out (by omega))
      have hownh := Lib.hid hown
      have hszw := hbel.size
      have l0 : 0 < t.size := by omega
      have l1 : 1 < t.size := by omega
      have l2 : 2 < t.size := by omega
      have l1i : (1 : Int) < (t.size : Int) := by omega
      have l2i : (2 : Int) < (t.size : Int) := by omega
      have hkk : 4 * k ≤ 1000000 := by omega
      have hts2 : t.size ≤ 100000 := by omega
      have htsh := Lib.hid hts
      clear hown hts
      have HG : Hid (∀ W, W = wr.drew → Calls Tryd.prog 27 #[u3, .int .u8 (t[0].toNat : Int), .int .u8 (t[1].toNat : Int), .int .u8 (t[2].toNat : Int)] W (GrpP w.heap.size (4 * k + 4) (b64A (l.take (3 * k)) ++ g4 t[0].toNat t[1].toNat t[2].toNat) w W u3)) := fun W hW => by
        subst hW
        exact group_any _ _ _ _ _ _ _ _ _ hownh.out hbel.drew hszw hkk
      go_wp2_with fail
      go_region_law ((go_simp; go_at_call 27; refine (HG.out _ rfl).mono ?_; rintro e w2 ⟨v', rfl, hown2, hb2, hsp2⟩))
      all_goals
        have hown2h := Lib.hid hown2
        have hb2h := Lib.hid hb2
        clear hown2 hsp2 hb2
        go_wp2
        refine ⟨⟨k + 1, t.extract 3 t.size, rfl, ?_, ?_, ?_, hb2h.out⟩, ?_⟩
        · have := htsh.out; rw [ByteArray.size_extract]; omega
        · show _ = _
          rw [Lib.extract_to_end, ht.out, List.drop_drop, show 3 * k + 3 = 3 * (k + 1) by omega]
        · rw [hT.out, h0.out, h1.out, h2.out]; exact hown2h.out
        · show (t.extract 3 t.size).size < t.size
          rw [ByteArray.size_extract]; omega
    · have hll := Lib.hid (HL.out k (by omega))
      have hT2 : t.size = 0 ∨ t.size = 1 ∨ t.size = 2 := by omega
      have hownh := Lib.hid hown
      have hszw := hbel.size
      have hfk := Lib.hid (HF.out k)
      have h3k : 3 * k ≤ s.size := by omega
      have hkk : 4 * k ≤ 1000000 := by omega
      have htsh := Lib.hid hts
      clear hts HF HT HL hlt
      rcases hT2 with h0 | h0 | h0
      · have hbe : b64A (l.drop (3 * k)) = [] := by
          rw [← ht.out, List.eq_nil_of_length_eq_zero (show t.data.toList.length = 0 by simpa using h0)]; rfl
        obtain ⟨a2, cap2, rfl, hq1, hq2, hrb⟩ := rb_of_row hown
        have hcv := conv_rb hrb (4 * k) hll.out cap2
        have hfin := Lib.hid (hfk.out wr h3k hbel)
        rw [hbe, List.append_nil] at hfin
        have hsz0 : (t.size : Int) = 0 := by omega
        have hsz1 : ¬ 3 ≤ t.size := by omega
        generalize b64A (l.take (3 * k)) = r at *
        clear hown hrb hq1 hq2 hbe h0
        go_wp2
        exact hfin.out
      · have l0 : 0 < t.size := by omega
        have hsz0 : (t.size : Int) = 1 := by omega
        have hsz1 : ¬ 3 ≤ t.size := by omega
        have h0h := Lib.hid h0
        clear h0
        have hb0 : Hid (l.getD (3 * k) 0 = t[0]) := ba_head t l (3 * k) 0 ht.out l0
        have HG : Hid (Calls Tryd.prog 27 #[u3, .int .u8 (t[0].toNat : Int), .int .u8 0, .int .u8 0] wr (GrpP w.heap.size (4 * k + 4) (b64A (l.take (3 * k)) ++ g4 t[0].toNat 0 0) w wr u3)) :=
          group_any _ _ _ _ _ 0 0 _ _ hownh.out hbel hszw hkk
        generalize b64A (l.take (3 * k)) = r at *
        clear hown
        go_wp2_with fail
        refine HG.out.mono ?_
        rintro e w2 ⟨v', rfl, hown2, hb2, hsp2⟩
        obtain ⟨g, cap2, rfl, hnc, how⟩ := own_slice hown2 (by omega)
        have howh := Lib.hid how
        have hkc : (4 * (k : Int) + 4) ≤ cap2 := by omega
        clear hown2 how hsp2
        go_wp2_with ((with_reducible show wpList _ _ _ _ _ _); refine copy_text rfl (.tmp 35) (.const (.string ⟨#[61, 61]⟩)) rfl g (4 * k + 4 - 2) _ _ rfl ⟨#[61, 61]⟩ rfl w.heap.size (4 * k + 4) cap2 _ howh ?c1 ?c2 w ?c3 ?_)
        case c1 => show 2 ≤ _; omega
        case c2 => show _ + 2 ≤ _; omega
        case c3 => exact hb2
        intro w3 how3 hb3
        have he := Lib.hid (end_one r t[0] k hll.out)
        have how4 : Hid (Ow w3 w.heap.size g (4 * k + 4) cap2 (r ++ b64A [t[0]])) := by show Ow _ _ _ _ _ _; rw [← he.out]; exact how3
        have hl1 := Lib.hid (ba_one t h0h.out l0)
        have hfin := Lib.hid (hfk.out w3 h3k hb3)
        rw [← ht.out, hl1.out] at hfin
        have hcv := conv_rb how4.out.rb (4 * k + 4) how4.out.len cap2
        clear how3
        generalize r ++ b64A [t[0]] = r2 at *
        go_wp2
        exact hfin.out
      · have l0 : 0 < t.size := by omega
        have l1 : 1 < t.size := by omega
        have l1i : (1 : Int) < (t.size : Int) := by omega
        have hsz0 : (t.size : Int) = 2 := by omega
        have hsz1 : ¬ 3 ≤ t.size := by omega
        have h0h := Lib.hid h0
        clear h0
        have HG : Hid (∀ W, W = wr.drew → Calls Tryd.prog 27 #[u3, .int .u8 (t[0].toNat : Int), .int .u8 (t[1].toNat : Int), .int .u8 0] W (GrpP w.heap.size (4 * k + 4) (b64A (l.take (3 * k)) ++ g4 t[0].toNat t[1].toNat 0) w W u3)) := fun W hW => by
          subst hW
          exact group_any _ _ _ _ _ _ 0 _ _ hownh.out hbel.drew hszw hkk
        generalize b64A (l.take (3 * k)) = r at *
        clear hown
        go_wp2_with fail
        go_region_law ((go_simp; go_at_call 27; refine (HG.out _ rfl).mono ?_; rintro e w2 ⟨v', rfl, hown2, hb2, hsp2⟩; obtain ⟨g, cap2, rfl, hnc, how⟩ := own_slice hown2 (by omega)))
        all_goals
          have howh := Lib.hid how
          have hkc : (4 * (k : Int) + 4) ≤ cap2 := by omega
          clear hown2 how hsp2
          go_wp2_with ((with_reducible show wpList _ _ _ _ _ _); refine copy_text rfl (.tmp 49) (.const (.string ⟨#[61]⟩)) rfl g (4 * k + 4 - 1) _ _ rfl ⟨#[61]⟩ rfl w.heap.size (4 * k + 4) cap2 _ howh ?_ ?_ w hb2 ?_)
          · show 1 ≤ _; omega
          · show _ + 1 ≤ _; omega
          intro w3 how3 hb3
          have he := Lib.hid (end_two r t[0] t[1] k hll.out)
          have how4 : Hid (Ow w3 w.heap.size g (4 * k + 4) cap2 (r ++ b64A [t[0], t[1]])) := by show Ow _ _ _ _ _ _; rw [← he.out]; exact how3
          have hl1 := Lib.hid (ba_two t h0h.out l0 l1)
          have hfin := Lib.hid (hfk.out w3 h3k hb3)
          rw [← ht.out, hl1.out] at hfin
          have hcv := conv_rb how4.out.rb (4 * k + 4) how4.out.len cap2
          clear how3
          generalize r ++ b64A [t[0], t[1]] = r2 at *
          go_wp2
          exact hfin.out
end Go.Proofs.YtaapmndfefjdcaaDoor
