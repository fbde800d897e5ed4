/- Texts of this claim, one behind the other: PLv, PNm, PFm, PFrame, PQb. -/
import Derived.Test.YtdfihpnmiiaflaaDoorZ15
import Derived.Test.YtdfihpnmiiaflaaDoorZ18
import Derived.Test.YtdfihpnmiiaflaaDoorZ11
import Derived.Test.YtdfihpnmiiaflaaDoorRows
import Derived.Test.YtdfihpnmiiaflaaDoorZ12
import Derived.Lib.LaidTab
import Derived.Deep.Slices
import Derived.ProofKit
import Derived.OpenShut
import Derived.ShutString
import Derived.ChangeOld
import Derived.LaidMore
import Derived.Stop.Joined
set_option linter.unusedSimpArgs false
set_option linter.unusedVariables false
section
/- The chapter's examples live. -/
namespace Go.Proofs.YtdfihpnmiiaflaaDoor
set_option maxRecDepth 8192
set_option linter.unusedSimpArgs false
set_option linter.unusedVariables false
open Go.RowKit Go.Maps

theorem conv1 (W : World) (k : Int) : (convert 30 30 (.slice (some ⟨W.heap.size, 0, none⟩) 1 1)).run Tryd.prog (W.alloc (.cells #[.int .u8 k] 5)) = .ok (.slice (some ⟨W.heap.size, 0, none⟩) 1 1) (W.alloc (.cells #[.int .u8 k] 5 (1, 2))) :=
  Lib.run_convert_bytes_const W 30 5 #[.int .u8 k] 1 1 Tryd.underlying30 Tryd.underlying5
theorem mark1 (w : World) (b : UInt8) : Rd (w.alloc (.cells #[.int .u8 (b.toNat : Int)] 5 (1, 2))) (w.alloc (.cells #[.int .u8 (b.toNat : Int)] 5 (1, 2))).heap.size (some ⟨w.heap.size, 0, none⟩) 1 1 [b] := Rd.mark' w [b] (1, 2)
theorem Bd0 (w0 w : World) (o : Obj) (h : Below w0.heap.size w0 w) : Below w0.heap.size w0 (w.alloc o) := bl_alloc h o
set_option maxHeartbeats 800000 in
theorem lives_any (w : World) (hT : Tab w) : Calls Tryd.prog 13 #[] w fun e w' => e = .returned (.bool true) ∧ Below w.heap.size w w' := by
  have HT := Lib.hid hT
  clear hT
  go_enter Tryd.func13, Tryd.ntmps13
  go_wp2_with fail
  refine (new_any w 8 (by decide) (by decide)).mono ?_; rintro e w1 ⟨p, s, m, rfl, hd, hhi, hb⟩
  obtain ⟨h1, h2, h3⟩ := hhi
  have HD := Lib.hid hd
  have HB := Lib.hid hb
  have HP1 := Lib.hid h1
  have HP2 := Lib.hid h2
  have HP3 := Lib.hid h3
  clear hd hb h1 h2 h3
  generalize hC : noC 8 = C at HD
  generalize hBz : zs (8 * 256) = B at HD
  have HC : Hid (C.length = 8) := Lib.hid (by rw [← hC]; simp [noC])
  clear hC hBz
  go_wp2_with fail
  refine (ps_open HD.out HT.out HB.out HP1.out HP2.out HP3.out (Zi.nil _ _ _ _) (by omega) (fun u hu => by simp at hu)).mono ?_; rintro e w2 ⟨q, g, rfl, hps, hq, hg, hb⟩
  rw [HC.out] at hps
  have HS2 := Lib.hid (show Ps w w2 q g p s m B C [false, false, false, false] from hps)
  clear hps hq hg hb HD HB HP1 HP2 HP3
  have hcv := conv1
  go_wp2_with fail
  refine (ps_new (HS2.out.old (bl_alloc (bl0 _) _)) 0 (mark1 w2 97) (by omega) rfl (by decide)).mono ?_; rintro e w3 ⟨rfl, hps, hk⟩
  have HS3 := Lib.hid (show Ps w w3 q g p s m B _ [true, false, false, false] from hps)
  clear hps hk HS2
  go_wp2_with fail
  refine (ps_new (HS3.out.old (bl_alloc (bl0 _) _)) 1 (mark1 w3 98) (by omega) rfl (by decide)).mono ?_; rintro e w4 ⟨rfl, hps, hk⟩
  have HS4 := Lib.hid (show Ps w w4 q g p s m B _ [true, true, false, false] from hps)
  clear hps hk HS3
  go_wp2_with fail
  refine (ps_free HS4.out 0 rfl).mono ?_; rintro e w5 ⟨rfl, hps, hk⟩
  have HS5 := Lib.hid (show Ps w w5 q g p s m B _ [false, true, false, false] from hps)
  clear hps hk HS4
  go_wp2_with fail
  refine (ps_new (HS5.out.old (bl_alloc (bl0 _) _)) 0 (mark1 w5 99) (by omega) rfl (by decide)).mono ?_; rintro e w6 ⟨rfl, hps, hk⟩
  have HS6 := Lib.hid (show Ps w w6 q g p s m B _ [true, true, false, false] from hps)
  clear hps hk HS5
  go_wp2_with fail
  refine (ps_readnot HS6.out 3 (by omega) (by omega) (by decide)).mono ?_; rintro e w7 ⟨rfl, hw⟩
  subst w7
  go_wp2_with fail
  have HPA : Hid (∀ C', C'.length = 8 → pageAt B (putPg C' 0 (pageB 0 [99])) 0 = pageB 0 [99]) := Lib.hid (fun C' h => pageAt_put (by omega))
  have hrd := ps_read HS6.out 0 rfl
  rw [HPA.out _ (by rw [putPg_length, putPg_length]; exact HC.out)] at hrd
  have hgp := goodP_page (n := 0) (b := [99]) (by decide)
  refine hrd.mono ?_
  rintro e w7 ⟨hh, hb⟩
  rw [if_pos hgp.1, hgp.2] at hh
  obtain ⟨A, rfl, hA, hsl⟩ := hh
  have hc := hsl.1.2.2 (by omega)
  obtain ⟨ad, he, _, hcell⟩ := hc
  injection he with he; subst he
  have hc0 : w7.cell? A = some (.int .u8 99) := by
    have := hcell 0 99 rfl
    simpa [Addr.add, B8] using this
  have HBF := Lib.hid (HS6.out.old hb).bl
  clear hgp hb hA hsl hcell hrd
  go_wp2
  go_ret
  exact ⟨rfl, HBF.out⟩
end Go.Proofs.YtdfihpnmiiaflaaDoor
end
section
/- The chapter's examples: PagesNames. -/
namespace Go.Proofs.YtdfihpnmiiaflaaDoor
set_option maxRecDepth 8192
set_option linter.unusedSimpArgs false
set_option linter.unusedVariables false
open Go.RowKit Go.Maps

theorem Zi.lit1 (w : World) (u : Int) (h1 : -9223372036854775808 ≤ u) (h2 : u ≤ 9223372036854775807) : Zi (w.alloc (.cells #[.int .i64 u] 3)) (w.alloc (.cells #[.int .i64 u] 3)).heap.size (some ⟨w.heap.size, 0, none⟩) 1 1 [u] := by
  refine ⟨rfl, Nat.le_refl _, fun v hv => by simp at hv; subst hv; exact ⟨h1, h2⟩, fun _ => ⟨_, rfl, by simp, fun j v hv => ?_⟩⟩
  rcases j with _ | j
  · simp at hv; subst hv
    rw [show ((⟨w.heap.size, 0, none⟩ : Addr).add 0) = ⟨w.heap.size, 0, none⟩ from rfl, cell_of_row _ w.heap.size 0 _ 3 (0, 0) (heap_alloc_new w _)]
    rfl
  · simp at hv
theorem Ni.lit0 (w : World) : Ni (w.alloc (.cells #[.int .i64 0] 3)) 0 (some ⟨w.heap.size, 0, none⟩) 1 1 [0] := by
  refine ⟨rfl, Nat.le_refl _, fun _ => ⟨_, rfl, Nat.zero_le _, by simp, fun j v hv => ?_⟩⟩
  rcases j with _ | j
  · simp at hv; subst hv
    rw [show ((⟨w.heap.size, 0, none⟩ : Addr).add 0) = ⟨w.heap.size, 0, none⟩ from rfl, cell_of_row _ w.heap.size 0 _ 3 (0, 0) (heap_alloc_new w _)]
    rfl
  · simp at hv
theorem mk501 : ∃ X, ∀ W : World, (Instr.makeSlice 30 (.int .i64 501) (.int .i64 501)).run Tryd.prog W = .ok (.slice (some ⟨W.heap.size, 0, none⟩) 501 501) (W.alloc (.cells X 5)) := by
  obtain ⟨i, hi, hz0, hz1, hz2⟩ := info_parts info_u8
  refine ⟨madeCells (Value.int .u8 0).cells (501 * i.size), fun W => ?_⟩
  have hr := run_make (P := Tryd.prog) W 30 5 i (.int .u8 0) Tryd.underlying30 hi hz0 .i64 .i64 501 501 (by omega) (by omega) (by rw [hz2]; omega) (by omega)
  rw [hr]
  simp
set_option maxHeartbeats 1600000 in
theorem PagesNames_walk (w : World) (hT : Tab w) : Calls Tryd.prog 3 #[] w fun e w' => e = .returned (.bool true) ∧ Below w.heap.size w w' := by
  have HT := Lib.hid hT
  clear hT
  go_enter Tryd.func3, Tryd.ntmps3
  simp only [List.append_eq, List.cons_append, List.nil_append]
  go_wp2_with fail
  refine (new_any w 5 (by decide) (by decide)).mono ?_; rintro e w1 ⟨p, s, m, rfl, hd, hhi, hb⟩
  obtain ⟨h1, h2, h3⟩ := hhi
  have HD := Lib.hid hd
  have HB := Lib.hid hb
  have HP1 := Lib.hid h1
  have HP2 := Lib.hid h2
  have HP3 := Lib.hid h3
  have HNG := Lib.hid notgood1
  clear hd hb h1 h2 h3
  generalize hC : noC 5 = C at HD HNG
  generalize hBz : zs (5 * 256) = B at HD HNG
  have HC : Hid (C.length = 5) := Lib.hid (by rw [← hC]; simp [noC])
  clear hC hBz
  go_wp2_with fail
  refine (open_pg_nil w1 _).mono ?_; rintro e w2 ⟨rfl, hw⟩; subst w2
  go_wp2_with fail
  have hin2 : ¬ inP (C.length / 2) [2] := by rw [HC.out]; intro h; have := h 2 (by simp); omega
  have hb1 : Below w1.heap.size w1 (w1.alloc (.cells #[.int .i64 2] 3)) := bl_alloc (bl0 _) _
  refine (ps_openbad (HD.out.old hb1) (Zi.lit1 w1 2 (by omega) (by omega)) (by omega) hin2).mono ?_; rintro e w2 ⟨rfl, hb2⟩
  have HD2 := Lib.hid ((HD.out.old hb1).old hb2)
  have HB2 := Lib.hid (bl_call (bl_call HB.out hb1) hb2)
  clear hin2 hb1 hb2 HD HB
  go_wp2_with fail
  have hin1 : inP (C.length / 2) [1] := by rw [HC.out]; intro u hu; simp at hu; omega
  have hb1 : Below w2.heap.size w2 (w2.alloc (.cells #[.int .i64 1] 3)) := bl_alloc (bl0 _) _
  refine (ps_open (HD2.out.old hb1) HT.out (bl_call HB2.out hb1) HP1.out HP2.out HP3.out (Zi.lit1 w2 1 (by omega) (by omega)) (by omega) hin1).mono ?_; rintro e w3 ⟨q, g, rfl, hps, hq, hg, hb⟩
  rw [HC.out] at hps
  have HS3 := Lib.hid (show Ps w w3 q g p s m B C [false, true] from hps)
  clear hps hq hg hb hin1 hb1 HD2 HB2
  go_wp2_with fail
  refine (ps_read HS3.out 1 rfl).mono ?_; rintro e w4 ⟨hh, hb⟩
  rw [if_neg HNG.out] at hh
  subst hh
  have HS4 := Lib.hid (HS3.out.old hb)
  clear hb HS3
  obtain ⟨X, hmk⟩ := mk501
  go_wp2_with fail
  refine (ps_long (HS4.out.old (bl_alloc (bl0 _) _)) (by omega) (by omega)).mono ?_; rintro e w5 ⟨rfl, hw⟩; subst w5
  have HS5 := Lib.hid (HS4.out.old (bl_alloc (bl0 w4) (.cells X 5)))
  generalize w4.alloc (.cells X 5) = w5 at HS5 ⊢
  clear HS4
  go_wp2_with fail
  refine (ps_new HS5.out 0 (Rd.nil _ _ _ _) (by omega) rfl (by decide)).mono ?_; rintro e w6 ⟨rfl, hps, hk⟩
  have HS6 := Lib.hid (show Ps w w6 q g p s m B _ [true, true] from hps)
  clear hps hk HS5
  go_wp2_with fail
  refine (ps_full HS6.out (by omega) (by decide)).mono ?_; rintro e w7 ⟨rfl, hw⟩; subst w7
  go_wp2_with fail
  have hb1 : Below w6.heap.size w6 (w6.alloc (.cells #[.int .i64 0] 3)) := bl_alloc (bl0 _) _
  refine (ps_keep (HS6.out.old hb1) (Zi.lit1 w6 0 (by omega) (by omega)) (by omega) (by intro u hu; simp at hu; subst hu; exact ⟨by omega, rfl⟩)).mono ?_; rintro e w7 ⟨g7, rfl, hps, hg, hk⟩
  have HS7 := Lib.hid (show Ps w w7 q g7 p s m B _ [true, false] from hps)
  clear hps hg hk HS6 hb1
  go_wp2_with fail
  have hb1 : Below w7.heap.size w7 (w7.alloc (.cells #[.int .i64 1] 3)) := bl_alloc (bl0 _) _
  refine (ps_keepnot (HS7.out.old hb1) (Zi.lit1 w7 1 (by omega) (by omega)) (by omega) (by intro h; have := h 1 (by simp); simp at this)).mono ?_; rintro e w8 ⟨rfl, hb⟩
  have HS8 := Lib.hid ((HS7.out.old hb1).old hb)
  clear hb HS7 hb1
  have hcv := conv1
  go_wp2_with fail
  have hb1 : Below w8.heap.size w8 (w8.alloc (.cells #[.int .u8 120] 5 (1, 2))) := bl_alloc (bl0 _) _
  refine (bytes_pg _ 7 (mark1 w8 120) (by omega) (by omega)).mono ?_; rintro e w9 ⟨f, rfl, hf, hbk, hb⟩
  have HS9 := Lib.hid ((HS8.out.old hb1).old hb)
  have hfx : (cs8 (pageB 7 [120]))[12]? = some (.int .u8 120) := by
    rw [pageB, cs8, List.getElem?_map, List.getElem?_append_right (by rw [sumP_length]; omega), sumP_length]
    rfl
  have HF := Lib.hid (hbk.cell hfx)
  have HFl := Lib.hid hbk.lt
  clear hb HS8 hb1 hf hbk hfx hcv
  go_wp2_with fail
  refine (bytes_bad w9 (-1) (by omega) (by omega)).mono ?_; rintro e w10 ⟨rfl, hw⟩; subst w10
  go_wp2_with fail
  refine (bytes_bad w9 2147483648 (by omega) (by omega)).mono ?_; rintro e w10 ⟨rfl, hw⟩; subst w10
  go_wp2_with fail
  refine (lives_any w9 HS9.out.tabw).mono ?_; rintro e w10 ⟨rfl, hb⟩
  have HS10 := Lib.hid (HS9.out.old hb)
  have hc12 : w10.cell? ⟨f, 12, none⟩ = some (.int .u8 120) := (hb.cell (p := ⟨f, 12, none⟩) HFl.out).trans HF.out
  clear hb HS9
  go_wp2_with fail
  refine (ps_spare HS10.out).mono ?_; rintro e w11 ⟨rfl, hw⟩; subst w11
  go_wp2_with fail
  refine (ps_used HS10.out.drew).mono ?_; rintro e w12 ⟨v, rfl, ho, hb⟩
  obtain ⟨A, c, rfl, hni⟩ := Oi.ni ho
  have HN12 := Lib.hid (show Ni w12 w10.drew.heap.size A 1 c [0] from hni)
  have HB12 := Lib.hid (bl_call HS10.out.drew.bl hb)
  have hlen : (trues 0 [true, false]).length = 1 := rfl
  rw [hlen]
  clear ho hni hb
  go_wp2_with fail
  have hb1 : Below w12.heap.size w12 (w12.alloc (.cells #[.int .i64 0] 3)) := bl_alloc (bl0 _) _
  refine (ints_eq (HN12.out.bel hb1) (Ni.lit0 w12) (by omega)).mono ?_; rintro e w13 ⟨rfl, hb⟩
  have HB13 := Lib.hid (bl_call (bl_call HB12.out hb1) hb)
  clear hb hb1
  go_wp2
  go_ret
  exact ⟨rfl, HB13.out⟩
end Go.Proofs.YtdfihpnmiiaflaaDoor
end
section
/- Calls that are gone through: how a slice of them reads; are they few. -/
namespace Go.Proofs.YtdfihpnmiiaflaaDoor
set_option linter.unusedSimpArgs false
set_option linter.unusedVariables false
open Go.RowKit Go.Maps

/-- A call: its kind, its number, its list, its body. -/
structure Act_ where
  kind : Int
  at_ : Int
  L : List Int
  b : List UInt8
/-- A call, and where its list and its body lie. -/
structure Av where
  a : Act_
  A : Option Addr
  ac : Nat
  D : Option Addr
  dc : Nat
/-- Its cells. -/
def Av.cells (x : Av) : List Value := [.int .i64 x.a.kind, .int .i64 x.a.at_, .slice x.A x.a.L.length x.ac, .slice x.D x.a.b.length x.dc]
/-- Its parts read, below block top. -/
def Av.ok (w : World) (top : Nat) (x : Av) : Prop := Zi w top x.A x.a.L.length x.ac x.a.L ∧ Rd w top x.D x.a.b.length x.dc x.a.b ∧ -9223372036854775808 ≤ x.a.at_ ∧ x.a.at_ ≤ 9223372036854775807
/-- The slice (A, n, c) reads, in w, as the calls l, and lies below block top. -/
def Ai (w : World) (top : Nat) (A : Option Addr) (n c : Nat) (l : List Av) : Prop :=
  l.length = n ∧ n ≤ c ∧ (∀ x ∈ l, x.ok w top) ∧ (0 < n → ∃ ad, A = some ad ∧ ad.block < top ∧ ∀ (j : Nat) x, l[j]? = some x → ∀ (i : Nat) v, x.cells[i]? = some v → w.cell? (ad.add (j * 4 + i)) = some v)
section
variable {w w' : World} {top n c : Nat} {A : Option Addr} {l : List Av}
theorem Av.ok.below {x : Av} (h : x.ok w top) (hb : Below top w w') : x.ok w' top := ⟨h.1.below hb, h.2.1.below hb, h.2.2⟩
theorem Ai.below (h : Ai w top A n c l) (hb : Below top w w') : Ai w' top A n c l :=
  ⟨h.1, h.2.1, fun x hx => (h.2.2.1 x hx).below hb, fun hn => by
    obtain ⟨ad, e, ht, hc⟩ := h.2.2.2 hn
    exact ⟨ad, e, ht, fun j x hx i v hv => (hb.cell (by rw [add_block]; exact ht)).trans (hc j x hx i v hv)⟩⟩
theorem Ai.at_ (h : Ai w top A n c l) {k : Nat} (hk : k < n) : ∃ ad x, A = some ad ∧ l[k]? = some x ∧ x ∈ l ∧ x.ok w top ∧ w.cell? (ad.add (k * 4)) = some (.int .i64 x.a.kind) ∧ w.cell? ⟨(ad.add (k * 4)).block, (ad.add (k * 4)).off + 1, none⟩ = some (.int .i64 x.a.at_) ∧
    w.cell? ⟨(ad.add (k * 4)).block, (ad.add (k * 4)).off + 2, none⟩ = some (.slice x.A x.a.L.length x.ac) ∧ w.cell? ⟨(ad.add (k * 4)).block, (ad.add (k * 4)).off + 3, none⟩ = some (.slice x.D x.a.b.length x.dc) ∧
    (∀ i v, x.cells[i]? = some v → w.cell? ((ad.add (k * 4)).add i) = some v) := by
  obtain ⟨ad, e, ht, hc⟩ := h.2.2.2 (by omega)
  have hl : k < l.length := by have := h.1; omega
  exact ⟨ad, l[k], e, List.getElem?_eq_getElem hl, List.getElem_mem hl, h.2.2.1 _ (List.getElem_mem hl), hc k _ (List.getElem?_eq_getElem hl) 0 _ rfl,
    by have := hc k _ (List.getElem?_eq_getElem hl) 1 _ rfl; rw [← add_add] at this; exact this, by have := hc k _ (List.getElem?_eq_getElem hl) 2 _ rfl; rw [← add_add] at this; exact this,
    by have := hc k _ (List.getElem?_eq_getElem hl) 3 _ rfl; rw [← add_add] at this; exact this, fun i v hv => by rw [add_add]; exact hc k _ (List.getElem?_eq_getElem hl) i v hv⟩
end
/-- Few calls. -/
def few (l : List Av) : Prop := l.length ≤ 80 ∧ ∀ x ∈ l, x.a.b.length ≤ 600 ∧ x.a.L.length ≤ 80
instance (l : List Av) : Decidable (few l) := inferInstanceAs (Decidable (_ ∧ _))

theorem few_more {l : List Av} {i : Nat} {x : Av} (h : ∀ x ∈ l.take i, x.a.b.length ≤ 600 ∧ x.a.L.length ≤ 80) (hx : l[i]? = some x) (hk : x.a.b.length ≤ 600 ∧ x.a.L.length ≤ 80) : ∀ x ∈ l.take (i + 1), x.a.b.length ≤ 600 ∧ x.a.L.length ≤ 80 := by
  intro y hy
  rw [List.take_add_one, hx] at hy
  rcases List.mem_append.1 hy with hy | hy
  · exact h y hy
  · simp at hy
    subst hy
    exact hk
set_option maxRecDepth 100000 in
theorem small_any (w : World) {top n c : Nat} {A : Option Addr} {l : List Av} (h : Ai w top A n c l) : Calls Tryd.prog 17 #[.slice A n c] w fun e w' => e = .returned (.bool (decide (few l))) ∧ w' = w := by
  have HA := Lib.hid h
  have hlen := Lib.hid h.1
  clear h
  by_cases h80 : n ≤ 80
  · have h80' : ¬ ((80 : Int) < (n : Int)) := by omega
    go_enter Tryd.func17, Tryd.ntmps17
    go_wp2
    go_loopw [3] (fun v wr => ∃ i : Nat, i ≤ n ∧ v = .int .i64 (i : Int) ∧ Hid (∀ x ∈ l.take i, x.a.b.length ≤ 600 ∧ x.a.L.length ≤ 80) ∧ wr = w) (fun v _ => n - (RowKit.intOf v).toNat)
    case atStart => exact ⟨0, by omega, rfl, Lib.hid (by simp), rfl⟩
    case round =>
      obtain ⟨i, hin, rfl, HF, rfl⟩ := hrel
      by_cases hlt : i < n
      · obtain ⟨ad, x, rfl, hx, hm, ho, _, _, c2, c3, _⟩ := HA.out.at_ hlt
        have HX := Lib.hid hx
        have HM := Lib.hid hm
        clear hx hm ho
        by_cases hk : x.a.b.length ≤ 600
        · by_cases hk2 : x.a.L.length ≤ 80
          · go_wp2
            go_roundw
            case rel => exact ⟨i + 1, by omega, by go_num, Lib.hid (few_more HF.out HX.out ⟨hk, hk2⟩), trivial⟩
            case measure => simp [RowKit.intOf]; omega
          · go_wp2
            go_ret
            exact ⟨by rw [show decide (few l) = false from decide_eq_false (fun h => hk2 (h.2 x HM.out).2)]; rfl, rfl⟩
        · go_wp2
          go_ret
          exact ⟨by rw [show decide (few l) = false from decide_eq_false (fun h => hk (h.2 x HM.out).1)]; rfl, rfl⟩
      · obtain rfl : i = n := by omega
        go_wp2
        go_ret
        refine ⟨?_, rfl⟩
        have hl := hlen.out
        have ht : l.take i = l := List.take_of_length_le (by omega)
        have hf := HF.out
        rw [ht] at hf
        rw [show decide (few l) = true from decide_eq_true (show few l from ⟨by omega, hf⟩)]
        rfl
  · have h80' : (80 : Int) < (n : Int) := by omega
    go_enter Tryd.func17, Tryd.ntmps17
    go_wp2
    go_ret
    exact ⟨by rw [show decide (few l) = false from decide_eq_false (fun h => by have := h.1; have := hlen.out; omega)]; rfl, rfl⟩
end Go.Proofs.YtdfihpnmiiaflaaDoor
end
section
/- What the last steps of all claims of this seat share. -/
namespace Go.Proofs.YtdfihpnmiiaflaaDoor
set_option linter.unusedSimpArgs false
set_option linter.unusedVariables false
set_option maxRecDepth 16384
open Go.ChangeShapes Go.WideShapes Go.ChangeAt Go.RowKit

theorem own : ownKnob Tryd.prog.godebug = none := by kernel_rfl
theorem laidOut : laidOutB Tryd.prog = true := by kernel_rfl

theorem cells3i : Tryd.prog.cellsOf 3 = 1 := by kernel_rfl
theorem cells5' : Tryd.prog.cellsOf 5 = 1 := by kernel_rfl
theorem cells29 : Tryd.prog.cellsOf 29 = 1 := by kernel_rfl
theorem cells30 : Tryd.prog.cellsOf 30 = 1 := by kernel_rfl
theorem cells42 : Tryd.prog.cellsOf 42 = 4 := by kernel_rfl
theorem cells85 : Tryd.prog.cellsOf 85 = 64 := by kernel_rfl

/-- The library's table, where the row lays it. -/
theorem tab_of {W : World} (h : laidMetH Tryd.prog [("math/bits.deBruijn64tab", Rows.laid_math_bits_deBruijn64tab)] W) : Tab W := by
  have h1 : laidMet Tryd.prog [("math/bits.deBruijn64tab", Lib.tabData .u8 (Lib.deBruijn64tab.map fun n : Nat => (n : Int)))] W := h
  have hg : Tryd.prog.globalNamed "math/bits.deBruijn64tab" = some 0 := by kernel_rfl
  have hT := Lib.tabIs_of_head hg (show (Tryd.prog.globals[0]?).map (·.type) = some 85 by kernel_rfl) Tryd.underlying85 Tryd.underlying5 cells5' cells85 h1
  intro j hj
  have := hT.cell hg j (by simpa [Lib.deBruijn64tab] using hj)
  rw [this]
  congr 2
  rw [List.getD_eq_getElem?_getD, List.getD_eq_getElem?_getD, List.getElem?_map]
  cases Lib.deBruijn64tab[j]? <;> rfl

theorem rd_of_nil (W : World) : ∃ l, Rd W W.heap.size none 0 0 l := ⟨[], Rd.nil _ _ _ _⟩

/-- A slice of bytes that came in reads as a list of bytes. -/
theorem rd_of {W : World} {x : Addr} {len cap : Nat} {zs : List Int} (hl : len ≤ cap) (hz : zs.length = cap)
    (hcell : ∀ i, i < zs.length → W.cell? (x.add i) = some (.int .u8 (zs.getD i 0))) (hwz : ∀ n ∈ zs, (Lit.int .u8 n).wf = true) :
    ∃ l, Rd W W.heap.size (some x) len cap l := by
  refine ⟨(zs.take len).map fun z => UInt8.ofNat z.toNat, by rw [List.length_map, List.length_take]; omega, hl, fun hn => ⟨x, rfl, ?_, fun j u hu => ?_⟩⟩
  · have h := hcell 0 (by omega)
    have := block_lt_of_cell h
    rwa [add_block] at this
  · rw [List.getElem?_map, List.getElem?_take] at hu
    split at hu
    · rename_i hj
      have hjl : j < zs.length := by omega
      rw [List.getElem?_eq_getElem hjl] at hu
      simp only [Option.map_some, Option.some.injEq] at hu
      subst hu
      rw [hcell j hjl]
      have hb := bounds_u8 (hwz zs[j] (List.getElem_mem _))
      have hg : zs.getD j 0 = zs[j] := by simp [List.getD, List.getElem?_eq_getElem hjl]
      rw [hg, B8]
      have : (UInt8.ofNat (zs[j]).toNat).toNat = (zs[j]).toNat := by simp; omega
      rw [this, Int.toNat_of_nonneg hb.1]
    · simp at hu



section
variable {H : Type} {enc : TypeId × Value → H} {W : World} {base : Nat} {held : Bool}
/-- Bytes that came in. -/
theorem data_of {fuel : Nat} {cs : List Value} {x : DataW H × List MemPlace} (h : DataW.trod enc Tryd.prog W base (fun _ => true) held fuel 30 cs = some x) :
    ∃ A c d, cs = [.slice A d.length c] ∧ Rd W W.heap.size A d.length c d := by
  rcases open_ints Tryd.underlying30 Tryd.underlying5 (by kernel_rfl) h with ⟨hcs, _⟩ | ⟨x, l, c, zs, hcs, _, hl, hm, hz, _, hcell, hwz⟩
  · exact ⟨none, 0, [], hcs, Rd.nil _ _ _ _⟩
  · obtain ⟨d, hd⟩ := rd_of hl (by simpa using hz) hcell hwz
    have := hd.len
    subst this
    exact ⟨_, _, d, hcs, hd⟩
/-- Integers that came in. -/
theorem ints_of {fuel : Nat} {cs : List Value} {x : DataW H × List MemPlace} (h : DataW.trod enc Tryd.prog W base (fun _ => true) held fuel 29 cs = some x) :
    ∃ A c d, cs = [.slice A d.length c] ∧ Zi W W.heap.size A d.length c d := by
  rcases open_ints Tryd.underlying29 Tryd.underlying3 (by kernel_rfl) h with ⟨hcs, _⟩ | ⟨x, len, cap, zs, hcs, _, hl, hm, hz, _, hcell, hwz⟩
  · exact ⟨none, 0, [], hcs, Zi.nil _ _ _ _⟩
  · have hz2 : zs.length = cap := by simpa using hz
    have hlen : (zs.take len).length = len := by rw [List.length_take]; omega
    refine ⟨some x, cap, zs.take len, by rw [hlen]; exact hcs, by rw [hlen], by rw [hlen]; exact hl, fun u hu => ?_, fun hn => ⟨x, rfl, ?_, fun j u hu => ?_⟩⟩
    · have hb := bounds_i64 (hwz u (List.mem_of_mem_take hu))
      exact ⟨by have := hb.1; omega, by have := hb.2; omega⟩
    · rw [hlen] at hn
      have h := hcell 0 (by omega)
      have := block_lt_of_cell h
      rwa [add_block] at this
    · rw [List.getElem?_take] at hu
      split at hu
      · rename_i hj
        have hjl : j < zs.length := by omega
        rw [hcell j hjl]
        rw [List.getElem?_eq_getElem hjl] at hu
        injection hu with hu
        rw [← hu]
        simp [List.getD, List.getElem?_eq_getElem hjl]
      · cases hu
/-- A call that came in. -/
theorem act_of {fuel : Nat} {cs : List Value} {x : DataW H × List MemPlace} (h : DataW.trod enc Tryd.prog W base (fun _ => true) held fuel 42 cs = some x) : ∃ v : Av, cs = v.cells ∧ v.ok W W.heap.size := by
  obtain ⟨xs, n, rfl, _, hl, hxs, hf⟩ := DataW.trod_struct Tryd.underlying42 h
  rw [cells42] at hl
  match cs, hl with
  | [c0, c1, c2, c3], _ =>
    have h0 : DataW.trod enc Tryd.prog W base (fun _ => true) held n 3 (([c0, c1, c2, c3].drop 0).take (Tryd.prog.cellsOf 3)) = xs[0]? := hf 0 _ rfl
    have h1 : DataW.trod enc Tryd.prog W base (fun _ => true) held n 3 (([c0, c1, c2, c3].drop 1).take (Tryd.prog.cellsOf 3)) = xs[1]? := hf 1 _ rfl
    have h2 : DataW.trod enc Tryd.prog W base (fun _ => true) held n 29 (([c0, c1, c2, c3].drop 2).take (Tryd.prog.cellsOf 29)) = xs[2]? := hf 2 _ rfl
    have h3 : DataW.trod enc Tryd.prog W base (fun _ => true) held n 30 (([c0, c1, c2, c3].drop 3).take (Tryd.prog.cellsOf 30)) = xs[3]? := hf 3 _ rfl
    rw [cells3i] at h0 h1
    rw [cells29] at h2
    rw [cells30] at h3
    simp only [List.drop_zero, List.drop_succ_cons, List.take_succ_cons, List.take_zero] at h0 h1 h2 h3
    have s : ∀ i, i < 4 → ∃ y, xs[i]? = some y := fun i hi => ⟨_, List.getElem?_eq_getElem (by rw [hxs]; exact hi)⟩
    obtain ⟨y0, e0⟩ := s 0 (by omega)
    obtain ⟨y1, e1⟩ := s 1 (by omega)
    obtain ⟨y2, e2⟩ := s 2 (by omega)
    obtain ⟨y3, e3⟩ := s 3 (by omega)
    rw [e0] at h0
    rw [e1] at h1
    rw [e2] at h2
    rw [e3] at h3
    obtain ⟨z0, g0, _, w0⟩ := DataW.trod_int Tryd.underlying3 h0
    obtain ⟨z1, g1, _, w1⟩ := DataW.trod_int Tryd.underlying3 h1
    obtain ⟨L, lc, l, g2, hl⟩ := ints_of h2
    obtain ⟨D, dc, d, g3, hd⟩ := data_of h3
    have b1 := bounds_i64 w1
    refine ⟨⟨⟨z0, z1, l, d⟩, L, lc, D, dc⟩, ?_, hl, hd, by have := b1.1; omega, by have := b1.2; omega⟩
    simp only [List.cons.injEq, and_true] at g0 g1 g2 g3
    simp only [Av.cells, g0, g1, g2, g3]
theorem open_act {r : Reach} {b0 : Nat} {v : Value} {d : DataW H} {p : List MemPlace} (hv : Value.okWide Tryd.prog W r b0 42 v) (h : DataW.Trod enc Tryd.prog W base (fun _ => true) held 42 v d p) :
    ∃ x : Av, v = .agg x.cells.toArray ∧ x.ok W W.heap.size := by
  unfold Value.okWide at hv
  rw [Tryd.underlying42] at hv
  obtain ⟨cs, rfl, hsz, _⟩ := hv
  obtain ⟨fuel, hf⟩ := h
  obtain ⟨x, hx, ho⟩ := act_of hf
  refine ⟨x, ?_, ho⟩
  rw [← hx]
  rfl
theorem open_data {A : Option Addr} {n c : Nat} {d : DataW H} {p : List MemPlace} (h : DataW.Trod enc Tryd.prog W base (fun _ => true) held 30 (.slice A n c) d p) : ∃ l, Rd W W.heap.size A n c l := by
  obtain ⟨fuel, hf⟩ := h
  obtain ⟨A', c', l, hcs, hr⟩ := data_of hf
  simp [Value.cells] at hcs
  obtain ⟨rfl, rfl, rfl⟩ := hcs
  exact ⟨l, hr⟩
/-- Calls that came in. -/
theorem open_acts {A : Option Addr} {n c : Nat} {d : DataW H} {p : List MemPlace} (h : DataW.Trod enc Tryd.prog W base (fun _ => true) held 44 (.slice A n c) d p) : ∃ l, Ai W W.heap.size A n c l := by
  obtain ⟨fuel, hf⟩ := h
  rcases Go.Deep.open_slice Tryd.underlying44 hf with ⟨hcs, _⟩ | ⟨a, len, cap, m, k, D, Pl, hcs, hb, hl, hm, hmm, _, hx⟩
  · simp [Value.cells] at hcs
    obtain ⟨rfl, rfl, rfl⟩ := hcs
    exact ⟨[], rfl, Nat.le_refl _, by simp, fun h => absurd h (by omega)⟩
  · simp [Value.cells] at hcs
    obtain ⟨rfl, rfl, rfl⟩ := hcs
    rw [cells42] at hx
    have hle : n ≤ m := by rw [hmm]; split <;> omega
    have hex : ∀ i, ∃ v : Av, i < n → (∀ j u, v.cells[j]? = some u → W.cell? (a.add (i * 4 + j)) = some u) ∧ v.ok W W.heap.size := fun i => by
      by_cases hi : i < n
      · obtain ⟨cs', h1, h2⟩ := hx i (by omega)
        obtain ⟨v, hv, ho⟩ := act_of h2
        refine ⟨v, fun _ => ⟨fun j u hu => ?_, ho⟩⟩
        have hj : j < 4 := (List.getElem?_eq_some_iff.1 hu).1
        have := (World.cells?_some h1).2.2 j hj
        rw [hv, hu, add_add] at this
        exact this
      · exact ⟨⟨⟨0, 0, [], []⟩, none, 0, none, 0⟩, fun h => absurd h hi⟩
    have hch := Classical.axiomOfChoice hex
    obtain ⟨F, hF⟩ := hch
    refine ⟨(List.range n).map F, by simp, hl, fun x hx => ?_, fun hn => ⟨a, rfl, ?_, fun j x hx i v hv => ?_⟩⟩
    · obtain ⟨i, hi, rfl⟩ := List.mem_map.1 hx
      exact (hF i (by simpa using hi)).2
    · have := (hF 0 hn).1 0 _ rfl
      have := block_lt_of_cell this
      rwa [add_block] at this
    · simp only [List.getElem?_map, Option.map_eq_some_iff] at hx
      obtain ⟨i', hi, rfl⟩ := hx
      have hj := (List.getElem?_eq_some_iff.1 hi).1
      simp only [List.length_range] at hj
      have : i' = j := by simpa using (List.getElem?_eq_some_iff.1 hi).2.symm
      subst this
      exact (hF i' hj).1 i v hv
end

theorem door_met (os : Os) (args : Array Value) : laidMetH Tryd.prog [("math/bits.deBruijn64tab", Rows.laid_math_bits_deBruijn64tab)] ((World.doorLaid Tryd.prog 400 os).forCall (fun _ _ => 0) ⟨#[], args, []⟩).memory :=
  laidMetH_of_parts3 (fuel := 8) (laidMet_of_run' 8 (by kernel_rfl) (by kernel_rfl)) (by kernel_rfl) (by kernel_rfl)
end Go.Proofs.YtdfihpnmiiaflaaDoor
end
section
/- The document's own page: its bytes. -/
namespace Go.Proofs.YtdfihpnmiiaflaaDoor
set_option maxRecDepth 8192
set_option linter.unusedSimpArgs false
set_option linter.unusedVariables false
open Go.RowKit Go.Maps

theorem qbytes_bad {A : Option Addr} {k c : Nat} (w : World) (n : Int) (hk2 : k ≤ 1152921504606846976) (hc : ¬ (0 ≤ n ∧ n ≤ 2147483647 ∧ k ≤ 500)) :
    Calls Tryd.prog 19 #[.int .i64 n, .slice A k c] w fun e w' => e = .returned (.tuple #[.slice none 0 0, .int .i64 2]) ∧ w' = w := by
  by_cases h0 : n < 0
  · clear hc
    go_enter Tryd.func19, Tryd.ntmps19
    go_wp2
    go_ret2
    exact ⟨rfl, rfl⟩
  · by_cases h1 : 2147483648 ≤ n
    · clear hc
      go_enter Tryd.func19, Tryd.ntmps19
      go_wp2
      go_ret2
      exact ⟨rfl, rfl⟩
    · have h2 : (500 : Int) < (k : Int) := by omega
      clear hc
      go_enter Tryd.func19, Tryd.ntmps19
      go_wp2
      go_ret2
      exact ⟨rfl, rfl⟩
set_option maxHeartbeats 800000 in
theorem qbytes_any {A : Option Addr} {k c : Nat} {b : List UInt8} (w : World) (n : Nat) (hr : Rd w w.heap.size A k c b) (hk : k ≤ 500) (hn : n ≤ 2147483647) :
    Calls Tryd.prog 19 #[.int .i64 (n : Int), .slice A k c] w fun e w' => ∃ v, e = .returned (.tuple #[v, .int .i64 0]) ∧ Ow w' w.heap.size v (pageB n b) ∧ Below w.heap.size w w' := by
  have hbl := hr.len
  have HP : Hid (b ++ List.replicate (500 - k) 0 = padP b) := Lib.hid (by rw [padP, hbl])
  have HPL : Hid ((padP b).length = 500) := Lib.hid (padP_length (by omega))
  have HPG : Hid (pageB n b = (sumS (OwordB n 4 ++ padP b)).take 12 ++ padP b) := Lib.hid rfl
  have HWn : Hid (IntKind.u64.wrap (n : Int) = (n : Int)) := Lib.hid (by rw [wrapN, Nat.mod_eq_of_lt (by omega)])
  have HWL : Hid ((OwordB n 4).length = 4) := Lib.hid (by simp [OwordB])
  have HSL : Hid ((sumS (OwordB n 4 ++ padP b)).length = 32) := Lib.hid (by rw [sumS, List.length_take, sumOf, signs_length, eat_length _ _ _ _ startS_length]; rfl)
  have HR := Lib.hid hr
  have hn2 : ¬ ((2147483648 : Int) ≤ (n : Int)) := by omega
  have hk1 : ((500 - k : Nat) : Int) = 500 - (k : Int) := by omega
  clear hr
  go_enter Tryd.func19, Tryd.ntmps19
  go_wp2_with (first | (refine wpList_appz rfl _ _ rfl rfl HO2.out (n := 500 - k) (by show Value.int .i64 _ = _; rw [hk1]) (by omega) (by omega) HB2.out.size ?_; intro v3 w3 ho3 hg3; have HO3 := Lib.hid ho3; have HG3 := Lib.hid hg3; clear ho3 hg3) | (at_builtin; refine wpList_app (base := w.heap.size) (xs := []) rfl _ _ rfl rfl (Ow.lit w #[] [] rfl (by simp)) rfl (HR.out.below ((Below.refl _ _).alloc (Nat.le_refl _) _)) (by simp; omega) (by simp) ?_; intro v2 w2 ho2 hg2 hv2; have HO2 := Lib.hid (show Ow w2 w.heap.size v2 b from ho2); have HB2 : Hid (Below w.heap.size w w2) := Lib.hid (((Below.refl _ _).alloc (Nat.le_refl _) _).grown hg2 (by simp) (fun g hg => (World.ownsRow.lt (Ow.lit w #[] [] rfl (by simp)) g hg).1)); clear ho2 hg2 hv2))
  have ho3 : Ow w3 w.heap.size v3 (padP b) := by have := HO3.out; rw [HP.out] at this; exact this
  have HB3 : Hid (Below w.heap.size w w3) := Lib.hid (HB2.out.grown HG3.out HB2.out.size (fun g hg => (World.ownsRow.lt HO2.out g hg).1))
  obtain ⟨A3, c3, rfl, hs3⟩ := ho3.sl HPL.out
  have HS3 := Lib.hid hs3
  clear hs3 ho3 HO3 HO2 HG3 HB2
  have hrs3 := HB3.out.size
  refine (QWord_any (A := none) (k := 0) (c := 0) (l := []) n 4 w3 (Rd.nil _ _ _ _) (by omega) (by omega)).mono ?_; rintro e w4 ⟨v4, rfl, ho4, hb4⟩
  rw [show (min (max (4 : Int) 1) 8).toNat = 4 from rfl, List.nil_append] at ho4
  obtain ⟨A4, c4, rfl, hs4⟩ := ho4.sl HWL.out
  have HR5 := Lib.hid (Rl.two hs4 (HS3.out.up hb4) 30)
  have HB4 := Lib.hid (HB3.out.trans (hb4.mono hrs3))
  have HB5 := Lib.hid (bl_alloc HB4.out (.cells #[.slice A4 4 c4, .slice A3 500 c3] 30))
  have HS5 := Lib.hid ((HS3.out.up hb4).up (bl_alloc (bl0 w4) (.cells #[.slice A4 4 c4, .slice A3 500 c3] 30)))
  have HFL := Lib.hid (show [OwordB n 4, padP b].flatten = OwordB n 4 ++ padP b by simp)
  clear ho4 hs4 hb4 HS3
  go_wp2_with fail
  refine (QSum_any _ HR5.out (by omega) (by rw [HFL.out, List.length_append, HWL.out, HPL.out]; omega)).mono ?_; rintro e w6 ⟨rfl, hb6⟩
  rw [HFL.out]
  have HB6 := Lib.hid (HB5.out.trans (hb6.mono HB5.out.size))
  have HS6 := Lib.hid (HS5.out.up hb6)
  clear hb6 HR5 HB5 HS5
  generalize hS : sumS (OwordB n 4 ++ padP b) = S at HSL HPG ⊢
  clear hS
  have HS32 := Lib.hid (show (cs8 S).length = 32 by rw [cs8_length, HSL.out])
  have HH := Lib.hid ((Bk.new w6 z36 75).setRow (cs8 S))
  have hb7 : Below w6.heap.size w6 ((w6.alloc (.cells z36.toArray 75)).setRow w6.heap.size (cs8 S).toArray) := bl_setRow (bl_alloc (bl0 w6) _) (Nat.le_refl _) _
  have HB7 := Lib.hid (HB6.out.trans (hb7.mono HB6.out.size))
  have HS7 := Lib.hid (HS6.out.up hb7)
  have hb8 : Below ((w6.alloc (.cells z36.toArray 75)).setRow w6.heap.size (cs8 S).toArray).heap.size ((w6.alloc (.cells z36.toArray 75)).setRow w6.heap.size (cs8 S).toArray) (((w6.alloc (.cells z36.toArray 75)).setRow w6.heap.size (cs8 S).toArray).alloc (.cells #[] 5)) := bl_alloc (bl0 _) _
  have hRd : Rd (((w6.alloc (.cells z36.toArray 75)).setRow w6.heap.size (cs8 S).toArray).alloc (.cells #[] 5)) (((w6.alloc (.cells z36.toArray 75)).setRow w6.heap.size (cs8 S).toArray).alloc (.cells #[] 5)).heap.size (some ⟨w6.heap.size, 0, none⟩) 12 32 (S.take 12) := by
    have hk := HH.out.keep hb8
    have h1 := hk.lt
    obtain ⟨t, h2⟩ := hk
    have := Rd.of_block (l := S) h2 h1
    rw [HSL.out] at this
    exact this.take_ (by omega)
  have HRd := Lib.hid hRd
  have HB8 := Lib.hid (HB7.out.trans (hb8.mono HB7.out.size))
  have HS8 := Lib.hid (HS7.out.1.below hb8)
  have HT78 := Lib.hid hb8.size
  have hs7 : ((w6.alloc (.cells z36.toArray 75)).setRow w6.heap.size (cs8 S).toArray).heap.size = w6.heap.size + 1 := by simp [World.setRow]
  have HT7s := Lib.hid hs7
  have HE : Hid (Ow (((w6.alloc (.cells z36.toArray 75)).setRow w6.heap.size (cs8 S).toArray).alloc (.cells #[] 5)) w.heap.size (.slice (some ⟨w6.heap.size + 1, 0, none⟩) 0 0) []) := Lib.hid (by
    have := Ow.lower (Ow.lit ((w6.alloc (.cells z36.toArray 75)).setRow w6.heap.size (cs8 S).toArray) #[] [] rfl (by simp)) HB7.out.size
    rw [hs7] at this
    exact this)
  clear hs7
  have HTL := Lib.hid (show (S.take 12).length = 12 by rw [List.length_take, HSL.out]; rfl)
  have HB6s := Lib.hid HB6.out.size
  clear hRd hb8 hb7 HS7 HS6 HB6
  go_wp2_with (first | (at_builtin; refine wpList_app (base := w.heap.size) (xs := S.take 12) rfl _ _ rfl rfl HO9.out rfl HR9.out (by rw [HTL.out]; omega) HB9.out.size ?_; intro v10 w10 ho10 hg10 hv10; have HO10 := Lib.hid ho10; have HB10 := Lib.hid (HB9.out.grown hg10 HB9.out.size (fun g hg => (World.ownsRow.lt HO9.out g hg).1)); clear ho10 hg10 hv10) | (refine wpList_alloc_z rfl 75 rfl z36 zero36 ?_) | (refine wpList_store_bk rfl 75 _ _ rfl w6.heap.size rfl (cs8 S) z36 rfl (Bk.new w6 z36 75) (by rw [HS32.out]; exact info36) (by rw [HS32.out]; exact len_z36) (cs8_all _) ?_) | (at_builtin; refine wpList_app (base := w.heap.size) (xs := []) rfl _ _ rfl rfl HE.out rfl HRd.out (by simp) HB8.out.size ?_; intro v9 w9 ho9 hg9 hv9; have HO9 := Lib.hid (show Ow w9 w.heap.size v9 (S.take 12) from ho9); have HB9 := Lib.hid (HB8.out.grown hg9 HB8.out.size (fun g hg => (World.ownsRow.lt HE.out g hg).1)); have HR9 := Lib.hid ((HS8.out.grown hg9 HT78.out (fun g e => by injection e with e; rw [← e]; exact Nat.le_of_eq HT7s.out)).more (Nat.le_trans HT78.out hg9.size)); clear ho9 hg9 hv9))
  go_ret2
  refine ⟨v10, rfl, ?_, HB10.out⟩
  rw [HPG.out]
  exact HO10.out
end Go.Proofs.YtdfihpnmiiaflaaDoor
end
