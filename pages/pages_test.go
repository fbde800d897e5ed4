package pages

import (
	"bytes"
	"crypto/sha512"
	"encoding/binary"
	"maps"
	"math"
	"slices"
	"testing"

	"headwater/api"
	"headwater/disk"
)

const sector = api.SectorSize

// filled is so many bytes of which no two near ones are alike, told from those of any other v.
func filled(n, v int) []byte {
	b := make([]byte, n)
	for i := range b {
		b[i] = byte(i*7 + i>>8 + v*13 + 1)
	}
	return b
}

// draws are numbers that are thrown about, always the same ones.
type draws uint64

func (d *draws) below(n int) int {
	*d = *d*6364136223846793005 + 1442695040888963407
	return int(uint64(*d)>>33) % n
}

func (d *draws) keeps(n int) []bool {
	keep := make([]bool, n)
	for i := range keep {
		keep[i] = d.below(2) == 0
	}
	return keep
}

// some are numbers below n, each or not, turned about, some of them twice.
func (d *draws) some(from []int) []int {
	var list []int
	for _, n := range from {
		for range d.below(3) {
			list = slices.Insert(list, d.below(len(list)+1), n)
		}
	}
	return list
}

// padded is the bytes with noughts behind, up to so many.
func padded(b []byte, n int) []byte { return append(bytes.Clone(b), make([]byte, n-len(b))...) }

// pageBytes is a page by the chapter's words.
func pageBytes(n int, body []byte) []byte {
	body = padded(body, 500)
	sum := sha512.Sum512_256(append(binary.LittleEndian.AppendUint32(nil, uint32(n)), body...))
	return append(sum[:12], body...)
}

// paper is a disk, and the page file on it, by the chapter's words: what is on the disk itself, what is cached, which pages are in use.
type paper struct {
	on    []byte
	cache map[int][]byte
	used  []bool
}

func (p *paper) new(body []byte) (int, api.Errno) {
	n := slices.Index(p.used, false)
	if n < 0 {
		return 0, api.ErrFull
	}
	b := pageBytes(n, body)
	p.cache[2*n], p.cache[2*n+1] = b[:sector], b[sector:]
	p.used[n] = true
	return n, api.OK
}

func (p *paper) inUse(n int) bool { return n >= 0 && n < len(p.used) && p.used[n] }

func (p *paper) read(n int) ([]byte, api.Errno) {
	if !p.inUse(n) {
		return nil, api.ErrNone
	}
	b := p.bytes()[2*n*sector:][:2*sector]
	if !bytes.Equal(b, pageBytes(n, b[12:])) {
		return nil, api.ErrBad
	}
	return b[12:], api.OK
}

func (p *paper) keep(list []int) (int, api.Errno) {
	for _, n := range list {
		if !p.inUse(n) {
			return 0, api.ErrNone
		}
	}
	gone := 0
	for n, used := range p.used {
		if used && !slices.Contains(list, n) {
			p.used[n] = false
			gone++
		}
	}
	return gone, api.OK
}

func (p *paper) flush() { p.crash(slices.Repeat([]bool{true}, len(p.cache))) }

func (p *paper) crash(keep []bool) {
	for i, at := range slices.Sorted(maps.Keys(p.cache)) {
		if i < len(keep) && keep[i] {
			copy(p.on[at*sector:], p.cache[at])
		}
	}
	p.cache = map[int][]byte{}
}

// bytes is what is read: of all sectors.
func (p *paper) bytes() []byte {
	all := bytes.Clone(p.on)
	for at, b := range p.cache {
		copy(all[at*sector:], b)
	}
	return all
}

func (p *paper) numbers() []int {
	var list []int
	for n, used := range p.used {
		if used {
			list = append(list, n)
		}
	}
	return list
}

// all is every page's number.
func (p *paper) all() []int {
	var list []int
	for n := range p.used {
		list = append(list, n)
	}
	return list
}

// open is a page file on a disk of so many sectors with something everywhere, and the paper of it.
func open(t *testing.T, count int, used ...int) (*disk.Disk, *paper, *Pages) {
	t.Helper()
	image := filled(count*sector, 3)
	d, err := disk.Of(image)
	if err != api.OK {
		t.Fatal("disk.Of", err)
	}
	m := &paper{on: image, cache: map[int][]byte{}, used: make([]bool, count/2)}
	for _, n := range used {
		m.used[n] = true
	}
	return d, m, reopen(t, d, m, used)
}

func reopen(t *testing.T, d *disk.Disk, m *paper, used []int) *Pages {
	t.Helper()
	p, err := Open(d, used)
	if err != api.OK || p == nil {
		t.Fatalf("Open of %v: %d", used, err)
	}
	stands(t, d, m, p)
	return p
}

// written is a page file of so many pages that were all made, of bodies of all kinds.
func written(t *testing.T, count int) (*disk.Disk, *paper, *Pages) {
	t.Helper()
	d, m, p := open(t, 2*count)
	for i := range count {
		makes(t, d, m, p, filled(i*37%501, i))
	}
	return d, m, p
}

// makes makes a page of the body, on paper too.
func makes(t *testing.T, d *disk.Disk, m *paper, p *Pages, body []byte) {
	t.Helper()
	want, wantErr := m.new(body)
	if n, err := p.New(body); n != want || err != wantErr {
		t.Fatalf("New: %d, %d, want %d, %d", n, err, want, wantErr)
	}
	stands(t, d, m, p)
}

// stands fails unless the disk is as the paper has it, and the page file answers what it has.
func stands(t *testing.T, d *disk.Disk, m *paper, p *Pages) {
	t.Helper()
	if want := m.numbers(); !slices.Equal(p.Used(), want) || p.Spare() != len(m.used)-len(want) {
		t.Fatalf("Used %v, Spare %d, want %v", p.Used(), p.Spare(), want)
	}
	for n := -1; n <= len(m.used)+1; n++ {
		want, wantErr := m.read(n)
		if b, err := p.Read(n); err != wantErr || !bytes.Equal(b, want) || err != api.OK && b != nil {
			t.Fatalf("Read(%d): %d of %d bytes, want %d", n, err, len(b), wantErr)
		}
	}
	if !bytes.Equal(d.Image(), m.on) {
		t.Fatal("the disk itself is another one")
	}
	if cached := slices.Sorted(maps.Keys(m.cache)); !slices.Equal(d.Cached(), cached) {
		t.Fatalf("cached %v, want %v", d.Cached(), cached)
	}
	for at, want := range m.cache {
		if b, _ := d.Read(at); !bytes.Equal(b, want) {
			t.Fatalf("sector %d", at)
		}
	}
}

// subsets gives all lists of numbers below n, rising.
func subsets(n int) func(func([]int) bool) {
	return func(give func([]int) bool) {
		for set := range 1 << n {
			var list []int
			for i := range n {
				if set>>i&1 == 1 {
					list = append(list, i)
				}
			}
			if !give(list) {
				return
			}
		}
	}
}

// counts are numbers of sectors: few, odd ones, about the ends of a bitmap's words, many.
var counts = []int{1, 2, 3, 4, 5, 8, 9, 125, 126, 127, 128, 129, 130, 131, 255, 256, 257, 258, 1 << 10}

func TestExamples(t *testing.T) {
	d, _ := disk.New(8)
	p, err := Open(d, nil)
	if err != api.OK {
		t.Fatal("Open", err)
	}
	for i, want := range []int{0, 1, 0} {
		if i == 2 && p.Free(0) != api.OK {
			t.Error("Free 0")
		}
		if n, err := p.New([]byte{byte(i)}); n != want || err != api.OK {
			t.Errorf("New: %d, %d, want %d", n, err, want)
		}
	}
	if b, err := p.Read(3); b != nil || err != api.ErrNone {
		t.Errorf("Read 3: %v, %d", b, err)
	}
}

func TestP101Bytes(t *testing.T) {
	for _, n := range []int{0, 1, 2, 127, 128, 255, 256, 1<<13 - 1, 1 << 13, 1<<16 - 1, 1 << 16, 0x1020304, 1 << 24, 1<<31 - 2, 1<<31 - 1} {
		for _, size := range []int{0, 1, 2, 11, 12, 244, 255, 256, 257, 498, 499, 500} {
			body := filled(size, n)
			b, err := Bytes(n, body)
			if err != api.OK || !bytes.Equal(b, pageBytes(n, body)) {
				t.Errorf("Bytes(%d, %d bytes): %d, other bytes", n, size, err)
			}
			more, _ := Bytes(n, padded(body, 500))
			if !bytes.Equal(b, more) {
				t.Errorf("Bytes(%d, %d bytes): noughts behind the body change it", n, size)
			}
		}
	}
	b, err := Bytes(7, nil)
	if err != api.OK || !bytes.Equal(b, pageBytes(7, nil)) {
		t.Error("Bytes of no body", err)
	}
}

func TestP101BytesErrors(t *testing.T) {
	for _, x := range []struct{ n, size int }{
		{-1, 3}, {math.MinInt, 3}, {math.MinInt32, 0}, {1 << 31, 3}, {1<<31 + 1, 0}, {1 << 32, 3}, {1<<32 + 1, 3}, {math.MaxInt, 3},
		{0, 501}, {5, 502}, {1<<31 - 1, 512}, {0, 1000}, {0, 1 << 16}, {0, 1<<16 + 1}, {-1, 501}, {1 << 31, 501},
	} {
		if b, err := Bytes(x.n, filled(x.size, 1)); err != api.ErrArg || b != nil {
			t.Errorf("Bytes(%d, %d bytes): %d, %d bytes", x.n, x.size, err, len(b))
		}
	}
}

func TestP101Open(t *testing.T) {
	for _, count := range counts {
		pages := count / 2
		open(t, count)
		var all, odd []int
		for n := range pages {
			all = append(all, n)
			if n%2 == 1 {
				odd = append(odd, n)
			}
			open(t, count, n)
		}
		open(t, count, all...)
		open(t, count, odd...)
		slices.Reverse(all)
		open(t, count, append(all, odd...)...)
	}
	for list := range subsets(6) {
		open(t, 12, list...)
		open(t, 13, append(list, list...)...)
	}
}

func TestP101OpenOfTheGreatestDisk(t *testing.T) {
	d, _ := disk.New(api.MaxSectors)
	p, err := Open(d, []int{8191, 0, 4096})
	if err != api.OK || !slices.Equal(p.Used(), []int{0, 4096, 8191}) || p.Spare() != 8189 {
		t.Error("Open", err)
	}
	var all []int
	for n := range 8192 {
		all = append(all, n)
	}
	p, err = Open(d, all)
	if err != api.OK || !slices.Equal(p.Used(), all) || p.Spare() != 0 {
		t.Error("Open of all", err)
	}
}

func TestP101OpenErrors(t *testing.T) {
	for _, x := range []struct {
		d    *disk.Disk
		used []int
	}{{nil, nil}, {nil, []int{0}}, {nil, []int{-1}}, {new(disk.Disk), nil}, {new(disk.Disk), []int{9}}} {
		if p, err := Open(x.d, x.used); p != nil || err != api.ErrNil {
			t.Errorf("Open of no disk, %v: %v, %d", x.used, p, err)
		}
	}
	for _, count := range counts {
		d, _ := disk.New(count)
		pages := count / 2
		for _, n := range []int{math.MinInt, -1 << 32, -65, -64, -1, pages, pages + 1, pages + 63, pages + 64, count + 1, 1 << 13, 1 << 32, 1<<32 + 1, math.MaxInt} {
			lists := [][]int{{n}, {n, n}}
			if pages > 0 {
				lists = append(lists, []int{0, n}, []int{n, pages - 1})
			}
			for _, used := range lists {
				if p, err := Open(d, used); p != nil || err != api.ErrArg {
					t.Errorf("%d sectors, Open of %v: %v, %d", count, used, p, err)
				}
			}
		}
		if len(d.Cached()) != 0 {
			t.Error("an error wrote something")
		}
	}
}

// TestP102New: whichever are in use, the least that is not is taken, and nothing else written.
func TestP102New(t *testing.T) {
	for list := range subsets(5) {
		d, m, p := open(t, 11, list...)
		for i := range 7 {
			makes(t, d, m, p, filled(100*i%501, i))
		}
		if n, err := p.New(nil); n != 0 || err != api.ErrFull {
			t.Errorf("New of a full one: %d, %d", n, err)
		}
	}
}

func TestP102NewBodies(t *testing.T) {
	for _, size := range []int{0, 1, 243, 244, 245, 256, 499, 500} {
		d, m, p := open(t, 4, 0)
		makes(t, d, m, p, filled(size, size))
		b, err := p.Read(1)
		if err != api.OK || !bytes.Equal(b, padded(filled(size, size), 500)) {
			t.Errorf("%d bytes: not the body", size)
		}
	}
}

// TestP102NewOfMany: the only one that is free is found, wherever it is.
func TestP102NewOfMany(t *testing.T) {
	for _, count := range counts {
		pages := count / 2
		var all []int
		for n := range pages {
			all = append(all, n)
		}
		d, _ := disk.New(count)
		p, _ := Open(d, all)
		for n := range pages {
			if n, err := p.New(nil); n != 0 || err != api.ErrFull {
				t.Fatalf("New of a full one: %d, %d", n, err)
			}
			p.Free(n)
			if got, err := p.New([]byte("x")); got != n || err != api.OK {
				t.Fatalf("%d pages, %d is free: %d, %d", pages, n, got, err)
			}
		}
		for n := range pages {
			if b, err := p.Read(n); err != api.OK || !bytes.Equal(b, padded([]byte("x"), 500)) {
				t.Fatalf("%d pages: page %d: %d", pages, n, err)
			}
		}
		if n, err := p.New(nil); n != 0 || err != api.ErrFull {
			t.Fatalf("New of %d pages: %d, %d", pages, n, err)
		}
	}
}

func TestP102NewErrors(t *testing.T) {
	for list := range subsets(3) {
		d, m, p := open(t, 6, list...)
		for _, size := range []int{501, 502, 512, 1 << 16, 1<<16 + 1} {
			if n, err := p.New(make([]byte, size)); n != 0 || err != api.ErrArg {
				t.Errorf("New of %d bytes: %d, %d", size, n, err)
			}
			stands(t, d, m, p)
		}
	}
	d, m, p := open(t, 6, 0, 1, 2)
	for _, size := range []int{0, 1, 500} {
		if n, err := p.New(make([]byte, size)); n != 0 || err != api.ErrFull {
			t.Errorf("New of a full one: %d, %d", n, err)
		}
		stands(t, d, m, p)
	}
}

func TestP102Read(t *testing.T) {
	d, m, p := written(t, 70)
	for _, n := range []int{math.MinInt, -1 << 32, -64, -1, 70, 71, 127, 128, 8192, 1 << 32, 1<<32 + 1, math.MaxInt} {
		if b, err := p.Read(n); b != nil || err != api.ErrNone {
			t.Errorf("Read(%d): %v, %d", n, b, err)
		}
	}
	for n := range 70 {
		p.Free(n)
		m.used[n] = false
		if b, err := p.Read(n); b != nil || err != api.ErrNone {
			t.Errorf("Read(%d) of one that was given back: %v, %d", n, b, err)
		}
	}
	stands(t, d, m, p)
}

// put writes a page's bytes into its sectors.
func put(d *disk.Disk, n int, b []byte) {
	d.Write(2*n, b[:sector])
	d.Write(2*n+1, b[sector:])
}

func TestP102ReadOfBad(t *testing.T) {
	d, _, p := written(t, 3)
	good := pageBytes(1, filled(321, 8))
	for i := range 8 * len(good) {
		b := bytes.Clone(good)
		b[i/8] ^= 1 << (i % 8)
		put(d, 1, b)
		if b, err := p.Read(1); b != nil || err != api.ErrBad {
			t.Fatalf("bit %d changed: %d", i, err)
		}
	}
	for name, b := range map[string][]byte{
		"noughts":          make([]byte, 512),
		"the page ahead":   pageBytes(0, filled(321, 8)),
		"the page behind":  pageBytes(2, filled(321, 8)),
		"the number by 64": pageBytes(65, filled(321, 8)),
		"a high byte more": pageBytes(1+1<<24, filled(321, 8)),
		"turned sectors":   append(bytes.Clone(good[sector:]), good[:sector]...),
	} {
		put(d, 1, b)
		if b, err := p.Read(1); b != nil || err != api.ErrBad {
			t.Errorf("%s: %d", name, err)
		}
	}
	put(d, 1, good)
	if b, err := p.Read(1); err != api.OK || !bytes.Equal(b, good[12:]) {
		t.Error("the page itself", err)
	}
}

// TestP102ReadIsOfTheDisk: what is in use is told to Open, what is in it the disk tells.
func TestP102ReadIsOfTheDisk(t *testing.T) {
	d, m, p := open(t, 8, 1, 2)
	body := filled(400, 9)
	put(d, 2, pageBytes(2, body))
	m.cache[4], m.cache[5] = pageBytes(2, body)[:sector], pageBytes(2, body)[sector:]
	stands(t, d, m, p)
	if b, err := p.Read(1); b != nil || err != api.ErrBad {
		t.Errorf("a page that was never written: %d", err)
	}
	if b, err := p.Read(2); err != api.OK || !bytes.Equal(b, padded(body, 500)) {
		t.Error("a page of another life", err)
	}
}

func TestP102Free(t *testing.T) {
	for _, count := range []int{1, 3, 64, 65, 129} {
		for n := range count {
			d, m, p := open(t, 2*count)
			for range count {
				m.new(nil)
				p.New(nil)
			}
			if err := p.Free(n); err != api.OK {
				t.Fatalf("Free(%d): %d", n, err)
			}
			m.used[n] = false
			if n%16 == 0 || count < 4 {
				stands(t, d, m, p)
			}
			if err := p.Free(n); err != api.ErrNone {
				t.Fatalf("Free(%d) again: %d", n, err)
			}
		}
	}
	d, m, p := open(t, 11, 1, 3)
	for _, n := range []int{math.MinInt, -1 << 32, -63, -64, -1, 0, 2, 4, 5, 6, 64, 65, 67, 1 << 13, 1 << 32, 1<<32 + 1, math.MaxInt} {
		if err := p.Free(n); err != api.ErrNone {
			t.Errorf("Free(%d): %d", n, err)
		}
		stands(t, d, m, p)
	}
}

func TestP102Sync(t *testing.T) {
	d, m, p := written(t, 4)
	for i := range 3 {
		if err := p.Sync(); err != api.OK {
			t.Fatal("Sync", err)
		}
		m.flush()
		stands(t, d, m, p)
		p.Free(i)
		m.used[i] = false
		makes(t, d, m, p, filled(77, i))
	}
}

func TestP102Keep(t *testing.T) {
	for used := range subsets(5) {
		for list := range subsets(5) {
			d, m, p := open(t, 10, used...)
			want, wantErr := m.keep(list)
			if gone, err := p.Keep(append(list, list...)); gone != want || err != wantErr {
				t.Errorf("%v, Keep of %v: %d, %d, want %d, %d", used, list, gone, err, want, wantErr)
			}
			stands(t, d, m, p)
		}
	}
}

func TestP102KeepOfMany(t *testing.T) {
	d, m, p := written(t, 130)
	for _, list := range [][]int{{128, 3, 64, 129, 63, 0, 127, 65}, {129, 129, 63}, {63}, nil, nil} {
		want, _ := m.keep(list)
		if gone, err := p.Keep(list); gone != want || err != api.OK {
			t.Errorf("Keep of %v: %d, %d, want %d", list, gone, err, want)
		}
		stands(t, d, m, p)
	}
}

func TestP102KeepErrors(t *testing.T) {
	d, m, p := open(t, 10, 1, 3)
	for _, n := range []int{math.MinInt, -1 << 32, -63, -64, -1, 0, 2, 4, 5, 64, 65, 67, 1 << 13, 1 << 32, 1<<32 + 1, math.MaxInt} {
		for _, list := range [][]int{{n}, {1, n}, {n, 3}, {3, 1, 3, n}} {
			if gone, err := p.Keep(list); gone != 0 || err != api.ErrNone {
				t.Errorf("Keep of %v: %d, %d", list, gone, err)
			}
			stands(t, d, m, p)
		}
	}
}

func TestP102UsedAndSpare(t *testing.T) {
	d, _ := disk.New(api.MaxSectors)
	p, _ := Open(d, nil)
	for n := range 8192 {
		if n%3 == 0 {
			p.New(nil)
			continue
		}
		if got, err := p.New(filled(5, n)); got != n || err != api.OK || p.Spare() != 8191-n {
			t.Fatalf("New: %d, %d; Spare %d", got, err, p.Spare())
		}
	}
	var want []int
	for n := range 8192 {
		if n*n%5 == 1 {
			p.Free(n)
			continue
		}
		want = append(want, n)
	}
	if !slices.Equal(p.Used(), want) || p.Spare() != 8192-len(want) {
		t.Error("Used, Spare of many")
	}
}

func TestP102Nobodys(t *testing.T) {
	for name, p := range map[string]*Pages{"nil": nil, "zero": {}} {
		for _, body := range [][]byte{nil, {1}, make([]byte, 501)} {
			if n, err := p.New(body); n != 0 || err != api.ErrNil {
				t.Errorf("%s: New: %d, %d", name, n, err)
			}
		}
		for _, n := range []int{-1, 0, 1} {
			if b, err := p.Read(n); b != nil || err != api.ErrNil {
				t.Errorf("%s: Read(%d): %v, %d", name, n, b, err)
			}
			if err := p.Free(n); err != api.ErrNil {
				t.Errorf("%s: Free(%d): %d", name, n, err)
			}
		}
		for _, list := range [][]int{nil, {0}, {-1}} {
			if gone, err := p.Keep(list); gone != 0 || err != api.ErrNil {
				t.Errorf("%s: Keep: %d, %d", name, gone, err)
			}
		}
		if err := p.Sync(); err != api.ErrNil {
			t.Errorf("%s: Sync: %d", name, err)
		}
		if len(p.Used()) != 0 || p.Spare() != 0 {
			t.Errorf("%s: Used %v, Spare %d", name, p.Used(), p.Spare())
		}
	}
}

// TestP102NoPages: a disk of one sector has no page, yet somebody made the page file.
func TestP102NoPages(t *testing.T) {
	d, m, p := open(t, 1)
	if n, err := p.New(nil); n != 0 || err != api.ErrFull {
		t.Errorf("New: %d, %d", n, err)
	}
	if gone, err := p.Keep(nil); gone != 0 || err != api.OK {
		t.Errorf("Keep: %d, %d", gone, err)
	}
	if p.Free(0) != api.ErrNone || p.Sync() != api.OK {
		t.Error("Free, Sync")
	}
	stands(t, d, m, p)
}

// tell has just these pages in use.
func (p *paper) tell(used []int) {
	for n := range p.used {
		p.used[n] = slices.Contains(used, n)
	}
}

// step does something to the page file that its draw tells, on paper too.
func step(t *testing.T, draw *draws, d *disk.Disk, m *paper, p *Pages) *Pages {
	t.Helper()
	n := draw.below(len(m.used)+2) - 1
	switch draw.below(12) {
	case 0:
		p.Sync()
		m.flush()
	case 1:
		keep := draw.keeps(2 * len(m.used))
		d.Crash(keep)
		m.crash(keep)
	case 2:
		used := draw.some(m.all())
		m.tell(used)
		return reopen(t, d, m, used)
	case 3:
		list := draw.some(append(m.numbers(), n))
		want, wantErr := m.keep(list)
		if gone, err := p.Keep(list); gone != want || err != wantErr {
			t.Fatalf("Keep of %v: %d, %d, want %d, %d", list, gone, err, want, wantErr)
		}
	case 4, 5:
		want := api.ErrNone
		if m.inUse(n) {
			want, m.used[n] = api.OK, false
		}
		if err := p.Free(n); err != want {
			t.Fatalf("Free(%d): %d, want %d", n, err, want)
		}
	default:
		makes(t, d, m, p, filled(draw.below(501), draw.below(256)))
	}
	return p
}

// TestP103AnyScript: whatever is called, each page is as the chapter tells it, behind crashes too, with the page file that was there and with another one.
func TestP103AnyScript(t *testing.T) {
	for seed := range 60 {
		draw := draws(seed)
		d, m, p := open(t, 1+draw.below(20))
		for range 120 {
			p = step(t, &draw, d, m, p)
			stands(t, d, m, p)
		}
	}
}

// TestP103InUseIsNotWritten: no call writes a page that was in use ahead of it, not even with the bytes it has.
func TestP103InUseIsNotWritten(t *testing.T) {
	for seed := range 20 {
		draw := draws(seed)
		d, m, p := open(t, 12)
		for range 60 {
			ahead := p.Used()
			d.Flush()
			m.flush()
			p = step(t, &draw, d, m, p)
			for _, n := range ahead {
				if slices.Contains(d.Cached(), 2*n) || slices.Contains(d.Cached(), 2*n+1) {
					t.Fatalf("seed %d: page %d was in use, and is written", seed, n)
				}
			}
		}
	}
}

// everyKeep gives all keeps of so many.
func everyKeep(n int) func(func([]bool) bool) {
	return func(give func([]bool) bool) {
		for list := range subsets(n) {
			keep := make([]bool, n)
			for _, i := range list {
				keep[i] = true
			}
			if !give(keep) {
				return
			}
		}
	}
}

// TestP103SyncedIsRead: pages that were synced and not given back are read behind any crash, whatever was made behind the sync; of what was made there a whole page is read, or the one of old, or none.
func TestP103SyncedIsRead(t *testing.T) {
	old := func(n int) []byte { return padded(filled(300+n, n), 500) }
	young := func(n int) []byte { return padded(filled(400+n, 100+n), 500) }
	for free := range subsets(4) {
		for keep := range everyKeep(6) {
			d, _ := disk.New(14)
			p, _ := Open(d, nil)
			for n := range 4 {
				p.New(old(n))
			}
			p.Sync()
			for _, n := range free {
				p.Free(n)
			}
			made := append(slices.Clone(free), 4, 5, 6)[:3]
			for _, n := range made {
				if got, err := p.New(young(n)); got != n || err != api.OK {
					t.Fatalf("New: %d, %d, want %d", got, err, n)
				}
			}
			d.Crash(keep)
			p, _ = Open(d, []int{0, 1, 2, 3, 4, 5, 6})
			for n := range 7 {
				want, wantErr := old(n), api.OK
				if n > 3 {
					want, wantErr = nil, api.ErrBad
				}
				if i := slices.Index(made, n); i >= 0 && keep[2*i] && keep[2*i+1] {
					want, wantErr = young(n), api.OK
				} else if i >= 0 && keep[2*i] != keep[2*i+1] {
					want, wantErr = nil, api.ErrBad
				}
				if b, err := p.Read(n); err != wantErr || !bytes.Equal(b, want) {
					t.Fatalf("given back %v, keep %v: page %d: %d, want %d", free, keep, n, err, wantErr)
				}
			}
		}
	}
}

// TestP103CrashBehindSync: a crash behind a sync changes nothing; one ahead of it takes what was made.
func TestP103CrashBehindSync(t *testing.T) {
	d, m, p := written(t, 5)
	p.Sync()
	m.flush()
	makes(t, d, m, p, nil)
	for range 2 {
		d.Crash(nil)
		m.crash(nil)
		stands(t, d, m, p)
	}
	reopen(t, d, m, []int{4, 0, 1, 2, 3})
	d, m, p = open(t, 6)
	makes(t, d, m, p, filled(9, 9))
	d.Crash(nil)
	m.crash(nil)
	stands(t, d, m, p)
	if b, err := p.Read(0); b != nil || err != api.ErrBad {
		t.Errorf("a page that was lost: %d", err)
	}
}

// spoil changes all bytes, those of the spare room too.
func spoil(b []byte) {
	b = b[:cap(b)]
	for i := range b {
		b[i] ^= 0xa5
	}
}

// spoilNumbers changes all numbers, those of the spare room too.
func spoilNumbers(l []int) {
	l = l[:cap(l)]
	for i := range l {
		l[i] = 7 - l[i]
	}
}

func TestRuleAnswersAreNew(t *testing.T) {
	d, m, p := written(t, 3)
	for n := range 3 {
		a, _ := p.Read(n)
		b, _ := p.Read(n)
		spoil(a)
		if want, _ := m.read(n); !bytes.Equal(b, want) {
			t.Errorf("two answers of Read(%d) share memory", n)
		}
	}
	a, _ := Bytes(1, filled(9, 9))
	b, _ := Bytes(1, filled(9, 9))
	spoil(a)
	if !bytes.Equal(b, pageBytes(1, filled(9, 9))) {
		t.Error("two answers of Bytes share memory")
	}
	spoilNumbers(p.Used())
	stands(t, d, m, p)
}

// TestRuleHandedInIsNotKept: nor is its spare room read or written.
func TestRuleHandedInIsNotKept(t *testing.T) {
	used := []int{1, 3, 0, 2}
	d, _ := disk.New(12)
	p, err := Open(d, used[:2])
	if err != api.OK || !slices.Equal(p.Used(), []int{1, 3}) || !slices.Equal(used, []int{1, 3, 0, 2}) {
		t.Fatal("Open", err)
	}
	spoilNumbers(used)
	if !slices.Equal(p.Used(), []int{1, 3}) {
		t.Error("Open keeps its numbers")
	}
	body := filled(600, 5)
	n, err := p.New(body[:10])
	b, _ := Bytes(n, body[:10])
	if n != 0 || err != api.OK || !bytes.Equal(body, filled(600, 5)) {
		t.Fatal("New", n, err)
	}
	spoil(body)
	want := pageBytes(0, filled(600, 5)[:10])
	if got, err := p.Read(0); err != api.OK || !bytes.Equal(got, want[12:]) || !bytes.Equal(b, want) {
		t.Error("New, Bytes keep a body, or read its spare room", err)
	}
	list := []int{3, 0, 1, 9}
	if gone, err := p.Keep(list[:2]); gone != 1 || err != api.OK || !slices.Equal(list, []int{3, 0, 1, 9}) {
		t.Error("Keep", gone, err)
	}
	spoilNumbers(list)
	if !slices.Equal(p.Used(), []int{0, 3}) {
		t.Error("Keep keeps its list")
	}
}

// TestRuleDiskIsKept: what was handed to Open is the disk that is written, and asking writes nothing.
func TestRuleDiskIsKept(t *testing.T) {
	d, m, p := written(t, 3)
	p.Sync()
	m.flush()
	for range 2 {
		p.Read(1)
		p.Used()
		p.Spare()
		p.Free(1)
		p.Keep([]int{0})
		p.Keep([]int{0, 1})
		Bytes(2, nil)
		Open(d, []int{2})
	}
	m.tell([]int{0})
	stands(t, d, m, p)
	if len(d.Cached()) != 0 {
		t.Error("something is written")
	}
}

// TestT6DiskIsGone: where somebody took the disk from beneath a page file, its calls end, and none answers a page that is not there.
func TestT6DiskIsGone(t *testing.T) {
	d, _, p := written(t, 3)
	p.Free(1)
	*d = disk.Disk{}
	if n, err := p.New(nil); n != 0 || err == api.OK {
		t.Errorf("New: %d, %d", n, err)
	}
	if b, err := p.Read(0); b != nil || err != api.ErrBad {
		t.Errorf("Read: %v, %d", b, err)
	}
	if p.Sync() == api.OK {
		t.Error("Sync")
	}
	if !slices.Equal(p.Used(), []int{0, 2}) || p.Spare() != 1 {
		t.Error("an error changed what is in use")
	}
}

func TestT6AnyArguments(t *testing.T) {
	numbers := []int{math.MinInt, math.MinInt32, -1, 0, 1, 63, 64, 1 << 13, math.MaxInt32, 1 << 31, math.MaxInt}
	bodies := [][]byte{nil, {}, {1}, make([]byte, 500), make([]byte, 501)}
	small, _ := disk.New(1)
	great, _ := disk.New(api.MaxSectors)
	files := []*Pages{nil, {}}
	for _, d := range []*disk.Disk{nil, {}, small, great} {
		for _, used := range [][]int{nil, {}, {0}, {5, 5}, numbers} {
			p, _ := Open(d, used)
			files = append(files, p)
		}
	}
	for _, p := range files {
		for _, n := range numbers {
			p.Read(n)
			p.Free(n)
			for _, body := range bodies {
				Bytes(n, body)
				p.New(body)
			}
			p.Keep([]int{n})
			p.Read(n)
		}
		p.Keep(numbers)
		p.Sync()
		p.Used()
		p.Spare()
		p.Keep(nil)
	}
}
