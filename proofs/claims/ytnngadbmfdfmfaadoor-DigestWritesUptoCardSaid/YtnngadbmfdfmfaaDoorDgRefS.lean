/-
  Helper: the walk of the reference's Sum.
-/
import Derived.Test.YtnngadbmfdfmfaaDoorDgOwn
import Derived.Deep.RegionLaw
import Derived.Deep.Cut
import Derived.Deep.DeepCutAuto
namespace Go.Proofs.YtnngadbmfdfmfaaDoor
open Go.RowKit
set_option linter.unusedVariables false
set_option linter.unusedSimpArgs false

def lenV (v : Value) : Nat := match v with | .slice _ n _ => n | _ => 0
/-- the bytes with c zeros -/
def mC (l : List UInt8) (c : Nat) : List UInt8 := (l ++ [128]) ++ List.replicate c 0
theorem mC_len (l : List UInt8) (c : Nat) : (mC l c).length = l.length + 1 + c := by unfold mC; simp; omega
theorem mC_step (l : List UInt8) (c : Nat) : mC l c ++ [0] = mC l (c + 1) := by unfold mC; rw [List.append_assoc, ← List.replicate_succ']
/-- the bytes with some of the length's -/
def mL (l : List UInt8) (k : Nat) : List UInt8 := mC l (zn l.length) ++ (lenB l.length).take k
theorem mL_len (l : List UInt8) (k : Nat) (hk : k ≤ 8) : (mL l k).length = l.length + 1 + zn l.length + k := by unfold mL; rw [List.length_append, mC_len, List.length_take, lenB_len]; omega
theorem mL_step (l : List UInt8) (q : Nat) (hq : q < 8) : mL l (7 - q) ++ [UInt8.ofNat (8 * l.length / 2 ^ (8 * q) % 256)] = mL l (8 - q) := by
  unfold mL
  rw [List.append_assoc]
  congr 1
  rw [show 8 - q = (7 - q) + 1 by omega, List.take_succ_eq_append_getElem (by rw [lenB_len]; omega)]
  congr 2
  have h := lenB_get l.length (7 - q) (by omega)
  rw [List.getElem?_eq_getElem (by rw [lenB_len]; omega)] at h
  have h2 := Option.some.inj h
  rw [h2, show 7 - (7 - q) = q by omega]
theorem mL_end (l : List UInt8) : mL l 8 = l ++ padB l.length := by
  unfold mL mC padB
  rw [List.take_of_length_le (by rw [lenB_len]; omega)]
  simp
theorem build_f {ops : Array Oper} {rest : List Oper} {o : Oper} {a : Act} {w : World} {Q : Exit → Act → World → Prop} (hg : o.guard = none) (parts : Array (Nat × Operand)) (ho : o.op = .build 31 parts)
    (hp : Tryd.prog.built 31 (parts.map fun (i, x) => (i, a.eval x)).toList = some (wv 8 fs).toArray)
    (h : wpList Tryd.prog ops Q rest (a.put o.dst (.agg (wv 8 fs).toArray)) w) : wpList Tryd.prog ops Q (o :: rest) a w :=
  wpList_build hg _ parts ho (by rw [hp]; rfl) (by rw [hp]; exact h)
theorem hex_piece (d : Nat) (h : d < 16) (W : World) : (Instr.sliceAt 9 (.string ⟨#[48, 49, 50, 51, 52, 53, 54, 55, 56, 57, 97, 98, 99, 100, 101, 102]⟩) (some (.int .u32 (d : Int))) (some (.int .u32 ((d : Int) + 1))) none).run Tryd.prog W = .ok (.string ⟨#[hx d]⟩) W := by
  have h16 : d = 0 ∨ d = 1 ∨ d = 2 ∨ d = 3 ∨ d = 4 ∨ d = 5 ∨ d = 6 ∨ d = 7 ∨ d = 8 ∨ d = 9 ∨ d = 10 ∨ d = 11 ∨ d = 12 ∨ d = 13 ∨ d = 14 ∨ d = 15 := by omega
  rcases h16 with rfl | rfl | rfl | rfl | rfl | rfl | rfl | rfl | rfl | rfl | rfl | rfl | rfl | rfl | rfl | rfl <;> (show _ = _; kernel_rfl)
theorem cells8 {W : World} {G : Nat} {F : Nat → BitVec 32} (h : Blk W G 31 (wv 8 F)) : W.cell? ⟨G, 0, none⟩ = some (.int .u32 (((F 0).toNat : Nat) : Int)) ∧ W.cell? ⟨G, 1, none⟩ = some (.int .u32 (((F 1).toNat : Nat) : Int)) ∧ W.cell? ⟨G, 2, none⟩ = some (.int .u32 (((F 2).toNat : Nat) : Int)) ∧ W.cell? ⟨G, 3, none⟩ = some (.int .u32 (((F 3).toNat : Nat) : Int)) ∧ W.cell? ⟨G, 4, none⟩ = some (.int .u32 (((F 4).toNat : Nat) : Int)) ∧ W.cell? ⟨G, 5, none⟩ = some (.int .u32 (((F 5).toNat : Nat) : Int)) ∧ W.cell? ⟨G, 6, none⟩ = some (.int .u32 (((F 6).toNat : Nat) : Int)) ∧ W.cell? ⟨G, 7, none⟩ = some (.int .u32 (((F 7).toNat : Nat) : Int)) := ⟨h.cell 0 _ rfl, h.cell 1 _ rfl, h.cell 2 _ rfl, h.cell 3 _ rfl, h.cell 4 _ rfl, h.cell 5 _ rfl, h.cell 6 _ rfl, h.cell 7 _ rfl⟩
theorem free8 {W : World} {G : Nat} {F : Nat → BitVec 32} (h : Blk W G 31 (wv 8 F)) : W.frozen? ⟨G, 0, none⟩ = false ∧ W.frozen? ⟨G, 1, none⟩ = false ∧ W.frozen? ⟨G, 2, none⟩ = false ∧ W.frozen? ⟨G, 3, none⟩ = false ∧ W.frozen? ⟨G, 4, none⟩ = false ∧ W.frozen? ⟨G, 5, none⟩ = false ∧ W.frozen? ⟨G, 6, none⟩ = false ∧ W.frozen? ⟨G, 7, none⟩ = false := ⟨h.free 0, h.free 1, h.free 2, h.free 3, h.free 4, h.free 5, h.free 6, h.free 7⟩
theorem put8 {W : World} {G : Nat} {F : Nat → BitVec 32} (h : Blk W G 31 (wv 8 F)) (H : Nat → BitVec 32) : Blk ((((((((W.setCell ⟨G, 0, none⟩ (.int .u32 (((H 0).toNat : Nat) : Int))).setCell ⟨G, 1, none⟩ (.int .u32 (((H 1).toNat : Nat) : Int))).setCell ⟨G, 2, none⟩ (.int .u32 (((H 2).toNat : Nat) : Int))).setCell ⟨G, 3, none⟩ (.int .u32 (((H 3).toNat : Nat) : Int))).setCell ⟨G, 4, none⟩ (.int .u32 (((H 4).toNat : Nat) : Int))).setCell ⟨G, 5, none⟩ (.int .u32 (((H 5).toNat : Nat) : Int))).setCell ⟨G, 6, none⟩ (.int .u32 (((H 6).toNat : Nat) : Int))).setCell ⟨G, 7, none⟩ (.int .u32 (((H 7).toNat : Nat) : Int))) G 31 (wv 8 H) := (((((((h.set 0 _).set 1 _).set 2 _).set 3 _).set 4 _).set 5 _).set 6 _).set 7 _
theorem puts8 {B : Nat} {w0 W : World} {G : Nat} (h : Below B w0 W) (hG : B ≤ G) (H : Nat → BitVec 32) : Below B w0 ((((((((W.setCell ⟨G, 0, none⟩ (.int .u32 (((H 0).toNat : Nat) : Int))).setCell ⟨G, 1, none⟩ (.int .u32 (((H 1).toNat : Nat) : Int))).setCell ⟨G, 2, none⟩ (.int .u32 (((H 2).toNat : Nat) : Int))).setCell ⟨G, 3, none⟩ (.int .u32 (((H 3).toNat : Nat) : Int))).setCell ⟨G, 4, none⟩ (.int .u32 (((H 4).toNat : Nat) : Int))).setCell ⟨G, 5, none⟩ (.int .u32 (((H 5).toNat : Nat) : Int))).setCell ⟨G, 6, none⟩ (.int .u32 (((H 6).toNat : Nat) : Int))).setCell ⟨G, 7, none⟩ (.int .u32 (((H 7).toNat : Nat) : Int))) := (((((((h.setCell (p := ⟨G, 0, none⟩) hG _).setCell (p := ⟨G, 1, none⟩) hG _).setCell (p := ⟨G, 2, none⟩) hG _).setCell (p := ⟨G, 3, none⟩) hG _).setCell (p := ⟨G, 4, none⟩) hG _).setCell (p := ⟨G, 5, none⟩) hG _).setCell (p := ⟨G, 6, none⟩) hG _).setCell (p := ⟨G, 7, none⟩) hG _
theorem comp_step (L : List UInt8) (k : Nat) : comp (blk L k) (fa (stA L k)) = fa (stA L (k + 1)) := by
  funext i
  show fs i + stA L k i + rnd (blk L k) (fa (stA L k)) 64 i = fs i + (stA L k i + rnd (blk L k) (fun i => fs i + stA L k i) 64 i)
  rw [BitVec.add_assoc]; rfl
theorem fa_zero (L : List UInt8) : fa (stA L 0) = fs := by
  funext i
  show fs i + 0 = fs i
  simp
theorem sl_sl (w : World) (g n cap l h : Nat) (L H : Int) (hL : L = (l : Int)) (hH : H = (h : Int)) (h1 : l ≤ h) (h2 : h ≤ cap) (h3 : l < cap) :
    (Instr.sliceAt 26 (.slice (some ⟨g, 0, none⟩) n cap) (some (.int .i64 L)) (some (.int .i64 H)) none).run Tryd.prog w = .ok (.slice (some ⟨g, l, none⟩) (h - l) (cap - l)) w := by
  subst hL hH
  have he : Tryd.prog.elem 26 = 5 := by kernel_rfl
  have hu : Tryd.prog.underlying 26 = some (.slice (Tryd.prog.elem 26)) := by rw [he]; exact Tryd.underlying26
  rw [run_sliceAt_slice w 26 _ _ _ _ hu, run_slice_lh w 26 (some ⟨g, 0, none⟩) n cap hu .i64 .i64 l h (by omega) (by omega) (by omega), he, size1]
  simp only [Result.andThen_ok, sliced, Int.toNat_natCast, Nat.mul_one]
  rw [if_neg (by omega)]
  simp [Addr.add_mid]
set_option maxRecDepth 100000 in
set_option maxHeartbeats 8000000 in
theorem refSum_any (s : ByteArray) (w : World) (hs : s.size ≤ 10000) :
    Calls Tryd.prog 11 #[.string s] w (TxtP (sumF s.data.toList) w) := by
  have hz1 := zero8
  have hlen : s.data.toList.length = s.size := (Lib.size_eq s).symm
  have hcv := Lib.run_convert_string_bytes (P := Tryd.prog) w 9 26 5 s Tryd.underlying9 Tryd.underlying26 Tryd.underlying5
  obtain ⟨hown0, hb0⟩ := own1_conv w s
  obtain ⟨N, hN⟩ : ∃ N, w.heap.size = N := ⟨_, rfl⟩
  have hFi : Hid (∀ w', Below N w w' → TxtP (sumF s.data.toList) w (.returned (.string ⟨(sumF s.data.toList).toArray⟩)) w') := fun w' h => ⟨rfl, by rw [hN]; exact h⟩
  have hsF : Hid (sumF s.data.toList = hexS (wordsF (mL s.data.toList 8)) 8) := by show _ = _; rw [mL_end]; rfl
  generalize TxtP (sumF s.data.toList) w = Po at *
  generalize sumF s.data.toList = r at *
  generalize grownCap w s.size 0 5 = cap0 at *
  generalize Lib.bytesWorld w 5 s = w1 at *
  generalize s.data.toList = l at *
  rw [hN] at hcv hown0 hb0
  have hown0h := Lib.hid hown0
  have hb0h := Lib.hid hb0
  have hb0s : N ≤ w1.heap.size := by have := hb0.size; omega
  have hlenh := Lib.hid hlen
  have hln : l.length ≤ 10000 := by omega
  clear hown0 hb0 hlen
  go_enter Tryd.func11, Tryd.ntmps11
  go_wp2_with (at_builtin; refine append_one rfl (.tmp 13) (.tmp 14) 26 rfl Tryd.underlying26 _ N _ l 128 rfl rfl hown0h.out w hb0h.out hb0s ?c1 rfl ?_)
  case c1 => omega
  intro v2 w2 hown2 hb2
  have hown2h : Hid (Own1 w2 N v2 (mC l 0)) := by show Own1 _ _ _ _; unfold mC; rw [List.replicate_zero, List.append_nil]; exact hown2
  have hb2h := Lib.hid hb2
  clear hown2 hb2 hcv hown0h hb0h hb0s
  go_wp2_with fail
  go_loopw [3] (fun v wr => ∃ c : Nat, c ≤ zn l.length ∧ Hid (Own1 wr N v (mC l c)) ∧ Hid (Below N w wr)) (fun v _ => l.length + 100 - lenV v)
  case atStart => exact ⟨0, Nat.zero_le _, hown2h, hb2h⟩
  case round =>
    obtain ⟨c, hc, hown, hbel⟩ := hrel
    have hz64 := zn_lt l.length
    have hq := mC_len l c
    have hown' := hown.out
    obtain ⟨g, cap, rfl, hrest⟩ := hown'
    have hgl := hrest.2.1
    have hgN := hrest.1
    clear hrest
    obtain ⟨u, hu⟩ : ∃ u, (mC l c).length % 64 = u := ⟨_, rfl⟩
    have e1 : (((mC l c).length : Nat) : Int).tmod 64 = (u : Int) := by rw [Int.tmod_eq_emod_of_nonneg (by omega)]; omega
    have e2 : (((mC l c).length : Nat) : Int) % 64 = (u : Int) := by omega
    generalize hqq : (mC l c).length = q at *
    have hqqh := Lib.hid hqq
    clear hqq
    by_cases hlt : c < zn l.length
    · have hne : ((u : Int) == 56) = false := by rw [beq_eq_false_iff_ne]; unfold zn at hlt; omega
      have hst := Lib.hid (mC_step l c)
      have hqb : Hid ((mC l c).length ≤ 100000000) := by show _ ≤ _; rw [hqqh.out]; omega
      have hbs : N ≤ wr.heap.size := by have := hbel.out.size; omega
      have hmes : l.length + 100 - (l.length + 1 + (c + 1)) < l.length + 100 - q := by omega
      have hl2 := Lib.hid (mC_len l (c + 1))
      clear hu hq
      go_wp2_with (at_builtin; refine append_one rfl (.tmp 20) (.tmp 21) 26 rfl Tryd.underlying26 _ N _ (mC l c) 0 rfl rfl hown.out w hbel.out hbs hqb.out rfl ?_)
      intro v3 w3 hown3 hb3
      have hown3h := Lib.hid hown3
      have hb3h := Lib.hid hb3
      clear hown3 hb3 hown
      go_wp2
      go_roundw
      case rel => exact ⟨c + 1, by omega, by rw [← hst.out]; exact hown3h, hb3h⟩
      case measure =>
        obtain ⟨g2, cap2, rfl, _⟩ := hown3h.out
        rw [hst.out]
        show l.length + 100 - (mC l (c + 1)).length < _
        rw [hl2.out]; exact hmes
    · have hcz : c = zn l.length := by omega
      have hne : ((u : Int) == 56) = true := by rw [beq_iff_eq]; unfold zn at hcz; omega
      have hm0 : Hid (Own1 wr N (.slice (some ⟨g, 0, none⟩) q cap) (mL l (8 - 8))) := by
        have e : mL l (8 - 8) = mC l c := by unfold mL; rw [hcz]; simp
        rw [e]; exact hown.out
      obtain ⟨bn, hbn⟩ : ∃ bn, 8 * s.size = bn := ⟨_, rfl⟩
      have hbnh := Lib.hid hbn
      have hszI : (s.size : Int) * 8 = (bn : Int) := by omega
      have hbnb : bn ≤ 80000 := by omega
      clear hu hlt hq hcz hown hc hqqh hz64 hgl hgN hbn
      go_wp2
      have h9 : ((u : Int) != 56) = false := by rw [bne, hne]; rfl
      rw [h9]
      clear h9
      clear e1 e2 hne hszI
      go_loopw [3, 5] (fun v i wr => ∃ (qq : Nat) (x : Int), qq ≤ 8 ∧ i = .int .i64 x ∧ Hid (x = (qq : Int) - 1) ∧ Hid (Own1 wr N v (mL l (8 - qq))) ∧ Hid (Below N w wr)) (fun _ i _ => (intOf i + 1).toNat)
      case atStart => exact ⟨8, 7, Nat.le_refl _, rfl, rfl, hm0, hbel⟩
      case round =>
        obtain ⟨qq, x, hqq, rfl, hx, hown, hbel⟩ := hrel
        have hown' := hown.out
        obtain ⟨g2, cap2, rfl, hrest⟩ := hown'
        clear hrest
        generalize hq3 : (mL l (8 - qq)).length = q3 at *
        have hq3h := Lib.hid hq3
        clear hq3
        have hql : Hid ((mL l (8 - qq)).length ≤ 100000000) := by
          show _ ≤ _
          rw [mL_len l (8 - qq) (by omega)]; have := zn_lt l.length; omega
        by_cases hlt : 0 < qq
        · obtain ⟨m, rfl⟩ : ∃ m, qq = m + 1 := ⟨qq - 1, by omega⟩
          obtain rfl : x = (m : Int) := by have := hx.out; omega
          have hst : Hid (mL l (7 - m) ++ [UInt8.ofNat (8 * l.length / 2 ^ (8 * m) % 256)] = mL l (8 - m)) := mL_step l m (by omega)
          have ev : (bn : Int) / 2 ^ (8 * m) % 256 = (((UInt8.ofNat (8 * l.length / 2 ^ (8 * m) % 256)).toNat : Nat) : Int) := by
            rw [toNat_ofNat _ (Nat.mod_lt _ (by omega)), hlenh.out, hbnh.out, Int.natCast_emod, Int.natCast_ediv, Int.natCast_pow]; rfl
          have evh := Lib.hid ev
          have hbs : N ≤ wr.heap.size := by have := hbel.out.size; omega
          have hmI : (0 : Int) ≤ (m : Int) := by omega
          have e3 : (0 : Int) ≤ 8 * (m : Int) := by omega
          have e4 : 8 * (m : Int) ≤ 64 := by omega
          have e5 : (8 * (m : Int)).toNat = 8 * m := by omega
          generalize UInt8.ofNat (8 * l.length / 2 ^ (8 * m) % 256) = cc at *
          clear ev hx
          go_wp2_with (at_builtin; refine append_one rfl (.tmp 31) (.tmp 37) 26 rfl Tryd.underlying26 _ N _ (mL l (8 - (m + 1))) cc rfl rfl hown.out w hbel.out hbs hql.out evh.out ?_)
          intro v3 w3 hown3 hb3
          rw [hst.out] at hown3
          have hown3h := Lib.hid hown3
          have hb3h := Lib.hid hb3
          clear hown3 hb3 hown
          go_wp2
          go_roundw
          case rel => repeat (first | exact ⟨m, (m : Int) - 1, by omega, rfl, rfl, hown3h, hb3h⟩ | exact ⟨⟨m, (m : Int) - 1, by omega, rfl, rfl, hown3h, hb3h⟩, rfl⟩ | apply Exists.intro)
          case measure => simp [intOf]
        · obtain rfl : qq = 0 := by omega
          obtain rfl : x = -1 := by have := hx.out; omega
          have hml : (mL l 8).length = l.length + 1 + zn l.length + 8 := mL_len l 8 (by omega)
          have hq8 : q3 = (mL l 8).length := hq3h.out.symm
          have hown8 : Hid (Own1 wr N (.slice (some ⟨g2, 0, none⟩) q3 cap2) (mL l 8)) := hown.out
          obtain ⟨nb, hnb⟩ : ∃ nb, q3 = 64 * nb := ⟨q3 / 64, by unfold zn at hml; omega⟩
          have hnb2 : nb ≤ 1000 := by have := zn_lt l.length; omega
          have hcap : q3 ≤ cap2 := by
            obtain ⟨g3, cap3, h3, _, _, h4, _⟩ := hown8.out
            injection h3 with h5 h6 h7
            omega
          have hws : Hid (wordsF (mL l 8) = fa (stA (mL l 8) nb)) := by
            show _ = _
            unfold wordsF
            rw [show (mL l 8).length / 64 = nb by omega]; rfl
          have hg2 : Hid (g2 < wr.heap.size ∧ ∀ k j, k < nb → j < 64 → wr.cell? ⟨g2, 64 * k + j, none⟩ = some (.int .u8 (((blk (mL l 8) k j).toNat : Nat) : Int))) := by
            obtain ⟨g3, cap3, h3, _, h4, _, _, h6⟩ := hown8.out
            injection h3 with h5 h7 h8
            injection h5 with h5
            injection h5 with h5
            subst h5
            refine ⟨h4, fun k j hk hj => ?_⟩
            unfold blk
            rw [if_pos hj]
            exact h6 (64 * k + j) (by omega)
          clear hq3h hown hown8 hql hml hq8 hx hm0 hlt
          generalize mL l 8 = m at *
          obtain ⟨G, hG⟩ : ∃ G, wr.heap.size = G := ⟨_, rfl⟩
          have hA : Hid (Blk (wr.alloc (.cells (wv 8 zw).toArray 31)) G 31 (wv 8 zw)) := by rw [← hG]; exact Blk.new wr _ _
          have hA2 : Hid (Blk ((wr.alloc (.cells (wv 8 zw).toArray 31)).setRow G (wv 8 fs).toArray) G 31 (wv 8 (fa (stA m 0)))) := by rw [fa_zero]; exact hA.out.row _
          have hAb : Hid (Below G wr ((wr.alloc (.cells (wv 8 zw).toArray 31)).setRow G (wv 8 fs).toArray)) := below_row ((Below.refl _ wr).alloc (by omega) _) (by omega) _
          have i1 := Lib.hid (i8 fs)
          have o1 := Lib.hid (arr_all (wv_one 8 fs))
          have z1 : Hid ((wv 8 zw).toArray.size = (wv 8 fs).toArray.size) := by show _ = _; simp [wv_len]
          go_wp2_with (first | (refine build_f rfl _ rfl (by kernel_rfl) ?_) | (refine wpList_store_row rfl 31 (.tmp 6) (.tmp 39) rfl G _ rfl rfl 31 _ hA.out i1.out z1.out o1.out ?_))
          generalize (wr.alloc (.cells (wv 8 zw).toArray 31)).setRow G (wv 8 fs).toArray = wb at *
          clear hA i1 o1 z1
          have hGN : Hid (N ≤ G) := by show _ ≤ _; have := hbel.out.size; omega
          have hgG : Hid (g2 < G) := by show _ < _; have := hg2.out.1; omega
          clear hG
          go_loopw [7] (fun i wr2 => ∃ k : Nat, k ≤ nb ∧ i = .int .i64 ((64 * k : Nat) : Int) ∧ Hid (Blk wr2 G 31 (wv 8 (fa (stA m k)))) ∧ Hid (Below G wr wr2)) (fun i _ => 64 * nb - (intOf i).toNat)
          case atStart => exact ⟨0, Nat.zero_le _, rfl, hA2, hAb⟩
          case round =>
            obtain ⟨k, hk, rfl, hB, hb⟩ := hrel
            have hkk := hk
            by_cases hlt : k < nb
            · have hkI : ((64 * k : Nat) : Int) < ((64 * nb : Nat) : Int) := by omega
              have hkI2 : 64 * (k : Int) < 64 * (nb : Int) := by omega
              have hcm := comp_step m k
              have hGl := hB.out.lt
              have hBK : Hid (∀ W, Below wr.heap.size wr W → Calls Tryd.prog 18 #[.agg #[.int .u32 (((fa (stA m k) 0).toNat : Nat) : Int), .int .u32 (((fa (stA m k) 1).toNat : Nat) : Int), .int .u32 (((fa (stA m k) 2).toNat : Nat) : Int), .int .u32 (((fa (stA m k) 3).toNat : Nat) : Int), .int .u32 (((fa (stA m k) 4).toNat : Nat) : Int), .int .u32 (((fa (stA m k) 5).toNat : Nat) : Int), .int .u32 (((fa (stA m k) 6).toNat : Nat) : Int), .int .u32 (((fa (stA m k) 7).toNat : Nat) : Int)], .slice (some ⟨g2, 64 * k, none⟩) 64 (cap2 - 64 * k)] W fun e w' => e = .returned (.agg #[.int .u32 (((fa (stA m (k + 1)) 0).toNat : Nat) : Int), .int .u32 (((fa (stA m (k + 1)) 1).toNat : Nat) : Int), .int .u32 (((fa (stA m (k + 1)) 2).toNat : Nat) : Int), .int .u32 (((fa (stA m (k + 1)) 3).toNat : Nat) : Int), .int .u32 (((fa (stA m (k + 1)) 4).toNat : Nat) : Int), .int .u32 (((fa (stA m (k + 1)) 5).toNat : Nat) : Int), .int .u32 (((fa (stA m (k + 1)) 6).toNat : Nat) : Int), .int .u32 (((fa (stA m (k + 1)) 7).toNat : Nat) : Int)]) ∧ Below W.heap.size W w') := fun W hW => by
                have hgw := hgG.out
                have hb9 := hb.out.trans (hW.mono (by have := hb.out.size; omega))
                have h9 := block_any (blk m k) (fa (stA m k)) g2 (64 * k) (cap2 - 64 * k) W (by have := hW.size; omega) (fun j hj => by rw [hb9.cell (show g2 < G by omega)]; exact hg2.out.2 k j hlt hj)
                rw [hcm] at h9
                exact h9
              have hsl2 : ∀ W : World, (Instr.sliceAt 26 (.slice (some ⟨g2, 0, none⟩) (64 * nb) cap2) (some (.int .i64 (64 * (k : Int)))) (some (.int .i64 (64 * (k : Int) + 64))) none).run Tryd.prog W = .ok (.slice (some ⟨g2, 64 * k, none⟩) 64 (cap2 - 64 * k)) W := fun W => by
                rw [sl_sl W g2 (64 * nb) cap2 (64 * k) (64 * k + 64) _ _ (by omega) (by omega) (by omega) (by omega) (by omega), show 64 * k + 64 - 64 * k = 64 by omega]
              have ew : IntKind.i64.wrap (64 * (k : Int) + 64) = 64 * (k : Int) + 64 := IntWalk.i64_in _ (by omega)
              clear hcm
              generalize hH1 : fa (stA m k) = F1 at *
              generalize hH2 : fa (stA m (k + 1)) = F2 at *
              have hH2h := Lib.hid hH2
              clear hH1 hH2
              obtain ⟨c0, c1, c2, c3, c4, c5, c6, c7⟩ := cells8 hB.out
              have hbd : Hid (Below wr.heap.size wr wr.drew) := (Below.refl _ _).drew
              go_upto_region 13 with fail
              go_region_law ((go_simp; go_at_call 18; (with_reducible refine (hBK.out _ hbd.out).mono ?_); rintro e w4 ⟨rfl, hb4⟩; have hb5 := hbd.out.trans hb4; have hB4 := hB.out.go hb5 hGl; obtain ⟨d0, d1, d2, d3, d4, d5, d6, d7⟩ := cells8 hB4; obtain ⟨f0, f1, f2, f3, f4, f5, f6, f7⟩ := free8 hB4))
              have hB5 := Lib.hid (put8 hB4 F2)
              have hb6 := Lib.hid (puts8 (hb.out.trans (hb5.mono (Nat.le_of_lt hGl))) (Nat.le_refl G) F2)
              clear c0 c1 c2 c3 c4 c5 c6 c7 d0 d1 d2 d3 d4 d5 d6 d7 f0 f1 f2 f3 f4 f5 f6 f7 hb4 hb5 hB4 hBK hsl2 ew
              go_wp2
              go_roundw
              case rel => exact ⟨k + 1, by omega, by congr 1, by rw [hH2h.out]; exact hB5, hb6⟩
              case measure => simp [intOf]; omega
            · obtain rfl : k = nb := by omega
              rw [← hws.out] at hB
              have hBn : Hid (Below N w wr) := hbel.out.trans (hb.out.mono hGN.out)
              have hfin := Lib.hid (hFi.out wr hBn.out)
              have hcl := Lib.hid (fun i (hi : i < 8) => hB.out.cell i _ (wv_get (wordsF m) i hi))
              clear hFi hb hg2 hgG hws hB hbel hBn hlt hkk
              generalize wordsF m = F at *
              go_wp2
              go_loopw [8, 9] (fun sv i wr2 => ∃ (k : Nat) (t : ByteArray), k ≤ 8 ∧ sv = .string t ∧ i = .int .i64 k ∧ Hid (t.data.toList = hexS F k) ∧ t.size = 8 * k ∧ wr2 = wr) (fun _ i _ => 8 - (intOf i).toNat)
              case atStart => exact ⟨0, ⟨#[]⟩, by omega, rfl, rfl, rfl, rfl, rfl⟩
              case round =>
                obtain ⟨k, t, hk, rfl, rfl, ht, hts, rfl⟩ := hrel
                by_cases hlt : k < 8
                · have hck := hcl.out k hlt
                  have hst : Hid (hexS F (k + 1) = hexS F k ++ hexW (F k) 8) := rfl
                  generalize F k = x at *
                  go_wp2
                  go_loopw [8, 10] (fun sv i wr2 => ∃ (qq : Nat) (y : Int) (t : ByteArray), qq ≤ 8 ∧ sv = .string t ∧ i = .int .i64 y ∧ Hid (y = 4 * (qq : Int) - 4) ∧ Hid (t.data.toList = hexS F k ++ hexW x (8 - qq)) ∧ t.size = 8 * k + (8 - qq) ∧ wr2 = wr) (fun _ i _ => (intOf i + 4).toNat)
                  case atStart => exact ⟨8, 28, t, by omega, rfl, rfl, rfl, by show _ = _; rw [ht.out]; simp [hexW], by omega, rfl⟩
                  case round =>
                    obtain ⟨qq, y, t, hq, rfl, rfl, hy, ht, hts, rfl⟩ := hrel
                    by_cases hlq : 0 < qq
                    · obtain ⟨q', rfl⟩ : ∃ q', qq = q' + 1 := ⟨qq - 1, by omega⟩
                      obtain ⟨pp, hpp⟩ : ∃ pp, 4 * q' = pp := ⟨_, rfl⟩
                      obtain rfl : y = (pp : Int) := by have := hy.out; omega
                      have hd : ((x.toNat : Nat) : Int) / 2 ^ pp % 16 = ((nib x (7 - q') : Nat) : Int) := by
                        unfold nib
                        rw [show 28 - 4 * (7 - q') = pp by omega, Int.natCast_emod, Int.natCast_ediv, Int.natCast_pow]; rfl
                      have hd2 : (((x.toNat : Nat) : Int) / 2 ^ pp).tmod 16 = ((nib x (7 - q') : Nat) : Int) := by
                        rw [Int.tmod_eq_emod_of_nonneg (Int.ediv_nonneg (by omega) (Int.pow_nonneg (by omega))), hd]
                      have hdl : nib x (7 - q') < 16 := Nat.mod_lt _ (by omega)
                      have hpc := hex_piece (nib x (7 - q')) hdl
                      have hsx : Hid (hexW x (7 - q') ++ [hx (nib x (7 - q'))] = hexW x (8 - q')) := by
                        show _ = _
                        rw [show 8 - q' = (7 - q') + 1 by omega, hexW_succ]
                      have hp0 : (0 : Int) ≤ (pp : Int) := by omega
                      have hp28 : (pp : Int) ≤ 28 := by omega
                      have hppn : (pp : Int).toNat = pp := by omega
                      have hdI : ((nib x (7 - q') : Nat) : Int) < 16 := by omega
                      generalize hx (nib x (7 - q')) = cd at *
                      generalize nib x (7 - q') = dd at *
                      have hszc : (⟨#[cd]⟩ : ByteArray).size = 1 := rfl
                      have hgu : (9223372036854775807 < t.size + (⟨#[cd]⟩ : ByteArray).size) = False := eq_false (by rw [hszc]; omega)
                      have hgu2 : (9223372036854775807 < t.size + 1) = False := eq_false (by omega)
                      have ht2 : Hid ((t ++ ⟨#[cd]⟩ : ByteArray).data.toList = hexS F k ++ hexW x (8 - q')) := by
                        show _ = _
                        rw [← hsx.out, ← List.append_assoc]
                        have h9 := ht.out
                        rw [show 8 - (q' + 1) = 7 - q' by omega] at h9
                        rw [← h9]
                        simp
                      have hts2 : Hid ((t ++ ⟨#[cd]⟩ : ByteArray).size = 8 * k + (8 - q')) := by
                        show _ = _
                        rw [ByteArray.size_append, hts, hszc]; omega
                      clear hy hsx hszc
                      go_wp2
                      go_roundw
                      case rel => exact ⟨q', (pp : Int) - 4, _, by omega, rfl, rfl, by show _ = _; omega, ht2, hts2.out, by first | trivial | rfl⟩
                      case measure => simp [intOf]; omega
                    · obtain rfl : qq = 0 := by omega
                      obtain rfl : y = -4 := by have := hy.out; omega
                      go_wp2
                      go_roundw
                      case rel => exact ⟨k + 1, t, by omega, rfl, by go_num, by rw [hst.out]; exact ht, by omega, by first | trivial | rfl⟩
                      case measure => simp [intOf]; omega
                · obtain rfl : k = 8 := by omega
                  have htr : t = ⟨r.toArray⟩ := by
                    rw [hsF.out, ← ht.out]
                  rw [← htr] at hfin
                  clear htr hcl
                  go_wp2
                  exact hfin.out
end Go.Proofs.YtnngadbmfdfmfaaDoor
