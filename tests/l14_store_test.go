package tests

import (
	"fmt"
	"hash/crc32"
	"maps"
	"math"
	"reflect"
	"slices"
	"strings"
	"testing"

	"loop.example/g00199/impl"
)

const topWant = 1000000

func makeRec(id string, n int) impl.Rec {
	return impl.Rec{Kind: impl.RecMake, Id: id, N: n}
}

func dataRec(id string, n int, data string) impl.Rec {
	return impl.Rec{Kind: impl.RecData, Id: id, N: n, Data: []byte(data)}
}

func doneRec(id string) impl.Rec {
	return impl.Rec{Kind: impl.RecDone, Id: id}
}

func dropRec(id string) impl.Rec {
	return impl.Rec{Kind: impl.RecDrop, Id: id}
}

func upOf(id string, want int, data string, done bool) impl.Up {
	return impl.Up{Id: id, Want: want, Data: []byte(data), Done: done}
}

func sumOf(data string) int {
	return int(crc32.Checksum([]byte(data), crc32.MakeTable(crc32.Castagnoli)))
}

func sameUp(a impl.Up, b impl.Up) bool {
	return a.Id == b.Id && a.Want == b.Want && string(a.Data) == string(b.Data) && a.Done == b.Done
}

func sameUps(a []impl.Up, b []impl.Up) bool {
	return slices.EqualFunc(a, b, sameUp)
}

func sameStore(a impl.Store, b impl.Store) bool {
	return sameDisk(a.Disk, b.Disk) && a.Epoch == b.Epoch && a.Next == b.Next && sameUps(a.Ups, b.Ups)
}

func upsTitle(l []impl.Up) string {
	s := ""
	for _, u := range l {
		s += fmt.Sprintf(" %.12q %d/%d %v", u.Id, len(u.Data), u.Want, u.Done)
	}
	return fmt.Sprintf("%d ups%s", len(l), s)
}

func storeTitle(s impl.Store) string {
	return fmt.Sprintf("%d and %d sectors, epoch %d, next %d, %s", len(s.Disk.Now), len(s.Disk.Sure), s.Epoch, s.Next, upsTitle(s.Ups))
}

func foldTitle(l []impl.Rec) string {
	s := ""
	for _, r := range l {
		s += fmt.Sprintf(" %d %.12q %d+%d", r.Kind, r.Id, r.N, len(r.Data))
	}
	return fmt.Sprintf("%d records%.300s", len(l), s)
}

// docFold tells by the chapter's words what records make, with the uploads in a map.
func docFold(l []impl.Rec) ([]impl.Up, bool) {
	ups := map[string]impl.Up{}
	for _, r := range l {
		u, there := ups[r.Id]
		fits := false
		switch r.Kind {
		case 1:
			fits = !there && len(ups) < 10
			u = upOf(r.Id, r.N, "", false)
		case 2:
			fits = there && !u.Done && len(u.Data) == r.N && r.N+len(r.Data) <= u.Want
			u.Data = slices.Concat(u.Data, r.Data)
		case 3:
			fits = there && !u.Done && len(u.Data) == u.Want
			u.Done = true
		case 4:
			fits = there
		}
		if !fits {
			return nil, false
		}
		ups[r.Id] = u
		if r.Kind == 4 {
			delete(ups, r.Id)
		}
	}
	var out []impl.Up
	for _, id := range slices.Sorted(maps.Keys(ups)) {
		out = append(out, ups[id])
	}
	return out, true
}

func checkFold(t *testing.T, l []impl.Rec, want ...impl.Up) {
	t.Helper()
	if got, ok := impl.FoldRecs(l); !ok || !sameUps(got, want) {
		t.Errorf("FoldRecs of %s: %s, %v, not %s", foldTitle(l), upsTitle(got), ok, upsTitle(want))
	}
}

func checkNoFold(t *testing.T, l ...impl.Rec) {
	t.Helper()
	if got, ok := impl.FoldRecs(l); ok || len(got) != 0 {
		t.Errorf("FoldRecs of %s: %s, %v, not nothing and false", foldTitle(l), upsTitle(got), ok)
	}
}

func recs(l ...impl.Rec) []impl.Rec {
	return l
}

// manyMakes makes so many uploads, none with the Id x.
func manyMakes(count int) []impl.Rec {
	var l []impl.Rec
	for i := range count {
		l = append(l, makeRec(fmt.Sprint("u", i), 5))
	}
	return l
}

func manyUps(count int) []impl.Up {
	var l []impl.Up
	for i := range count {
		l = append(l, upOf(fmt.Sprint("u", i), 5, "", false))
	}
	return l
}

func TestConstantsOfTheStore(t *testing.T) {
	codes := []int{impl.StoreGood, impl.StoreForm, impl.StoreNone, impl.StoreThere, impl.StorePlace, impl.StoreFull, impl.StoreSum}
	if !slices.Equal(codes, []int{0, 1, 2, 3, 4, 5, 6}) || impl.MaxUps != 10 {
		t.Errorf("codes are %v, at most %d uploads", codes, impl.MaxUps)
	}
}

func TestFoldRecsOfEachKind(t *testing.T) {
	checkFold(t, nil)
	checkFold(t, []impl.Rec{})
	l := recs(makeRec("a", 5), dataRec("a", 0, "hel"), dataRec("a", 3, "lo"), doneRec("a"), dropRec("a"))
	checkFold(t, l[:1], upOf("a", 5, "", false))
	checkFold(t, l[:2], upOf("a", 5, "hel", false))
	checkFold(t, l[:3], upOf("a", 5, "hello", false))
	checkFold(t, l[:4], upOf("a", 5, "hello", true))
	checkFold(t, l)
	for _, r := range l[1:] {
		checkNoFold(t, r)
	}
}

func TestFoldRecsOfMakes(t *testing.T) {
	for _, want := range []int{0, 1, 24, topWant, topWant + 1, topNumber} {
		checkFold(t, recs(makeRec("a", want)), upOf("a", want, "", false))
		checkNoFold(t, makeRec("a", want), makeRec("a", want))
		checkNoFold(t, makeRec("a", want), makeRec("a", 7))
		checkFold(t, recs(makeRec("a", want), dropRec("a"), makeRec("a", 7)), upOf("a", 7, "", false))
		checkNoFold(t, makeRec("a", want), dropRec("a"), makeRec("a", 7), makeRec("a", 7))
	}
	checkNoFold(t, makeRec("a", 0), doneRec("a"), makeRec("a", 0))
	// Anew means: without what came ahead of the drop, and not done.
	whole := recs(makeRec("a", 2), dataRec("a", 0, "xy"), doneRec("a"), dropRec("a"), makeRec("a", 2))
	checkFold(t, whole, upOf("a", 2, "", false))
	checkFold(t, append(whole, dataRec("a", 0, "z")), upOf("a", 2, "z", false))
	checkNoFold(t, append(whole, dataRec("a", 2, "z"))...)
}

func TestFoldRecsOfManyMakes(t *testing.T) {
	for count := range 11 {
		checkFold(t, manyMakes(count), manyUps(count)...)
	}
	ten := manyMakes(10)
	checkNoFold(t, manyMakes(11)...)
	checkNoFold(t, manyMakes(12)...)
	checkNoFold(t, slices.Concat(ten, recs(makeRec("x", 0)))...)
	// One that is done has its place still, one that is gone has none.
	checkNoFold(t, slices.Concat(recs(makeRec("z", 0), doneRec("z")), ten)...)
	checkFold(t, slices.Concat(recs(makeRec("x", 0), dropRec("x")), ten), manyUps(10)...)
	for i := range 10 {
		gone := slices.Concat(ten, recs(dropRec(ten[i].Id), makeRec("x", 3)))
		want := slices.Delete(manyUps(10), i, i+1)
		checkFold(t, gone, append(want, upOf("x", 3, "", false))...)
		checkNoFold(t, append(gone, makeRec("y", 3))...)
	}
}

func TestFoldRecsOfData(t *testing.T) {
	begun := recs(makeRec("a", 30), dataRec("a", 0, text24))
	checkFold(t, append(begun, dataRec("a", 24, "123456")), upOf("a", 30, text24+"123456", false))
	checkNoFold(t, append(begun, dataRec("a", 24, "1234567"))...)
	for _, n := range slices.Concat(greatNumbers, []int{-24, -1, 0, 1, 22, 23, 25, 26, 30, 31, topNumber}) {
		checkNoFold(t, append(begun, dataRec("a", n, "1"))...)
		checkNoFold(t, makeRec("a", 30), dataRec("b", n, "1"))
		if n != 0 {
			checkNoFold(t, makeRec("a", topNumber), dataRec("a", n, "1"))
		}
	}
	checkNoFold(t, append(begun, dataRec("b", 24, "1"))...)
	checkNoFold(t, append(begun, dropRec("a"), dataRec("a", 24, "1"))...)
	checkNoFold(t, append(begun, dropRec("a"), dataRec("a", 0, "1"))...)
}

// Just as much as Want, and one byte more, in one record and in two.
func TestFoldRecsUpToWant(t *testing.T) {
	for want := range 50 {
		begun := recs(makeRec("a", want))
		for size := 1; size <= 24; size++ {
			one := append(begun, dataRec("a", 0, longSector(size)))
			if size > want {
				checkNoFold(t, one...)
				continue
			}
			checkFold(t, one, upOf("a", want, longSector(size), false))
			left := want - size
			if left >= 1 && left <= 24 {
				checkFold(t, append(one, dataRec("a", size, longSector(left))), upOf("a", want, longSector(size)+longSector(left), false))
			}
			if left+1 <= 24 {
				checkNoFold(t, append(one, dataRec("a", size, longSector(left+1)))...)
			}
		}
	}
	checkNoFold(t, makeRec("a", 0), dataRec("a", 0, "x"))
	checkNoFold(t, makeRec("a", 0), doneRec("a"), dataRec("a", 0, "x"))
	checkNoFold(t, makeRec("a", 2), dataRec("a", 0, "xy"), doneRec("a"), dataRec("a", 2, "z"))
	checkNoFold(t, makeRec("a", 2), dataRec("a", 0, "xy"), doneRec("a"), dataRec("a", 0, "x"))
}

func TestFoldRecsOfDone(t *testing.T) {
	checkFold(t, recs(makeRec("a", 0), doneRec("a")), upOf("a", 0, "", true))
	checkNoFold(t, makeRec("a", 0), doneRec("a"), doneRec("a"))
	checkNoFold(t, makeRec("a", 1), doneRec("a"))
	checkNoFold(t, makeRec("a", 0), doneRec("b"))
	checkNoFold(t, makeRec("a", 0), dropRec("a"), doneRec("a"))
	for want := 1; want <= 24; want++ {
		for size := 1; size <= want; size++ {
			l := recs(makeRec("a", want), dataRec("a", 0, longSector(size)), doneRec("a"))
			if size < want {
				checkNoFold(t, l...)
				continue
			}
			checkFold(t, l, upOf("a", want, longSector(size), true))
			checkNoFold(t, append(l, doneRec("a"))...)
		}
	}
	checkNoFold(t, makeRec("a", 2), dataRec("a", 0, "xy"), doneRec("b"))
}

func TestFoldRecsOfDrops(t *testing.T) {
	checkNoFold(t, dropRec("a"))
	checkNoFold(t, makeRec("a", 1), dropRec("b"))
	checkNoFold(t, makeRec("a", 1), dropRec("a"), dropRec("a"))
	for _, l := range [][]impl.Rec{
		recs(makeRec("b", 4)),
		recs(makeRec("b", 4), dataRec("b", 0, "12")),
		recs(makeRec("b", 4), dataRec("b", 0, "1234")),
		recs(makeRec("b", 4), dataRec("b", 0, "1234"), doneRec("b")),
	} {
		checkFold(t, append(l, dropRec("b")))
		around := slices.Concat(recs(makeRec("a", 1), makeRec("c", 3), dataRec("c", 0, "x")), l, recs(dropRec("b"), dataRec("a", 0, "y")))
		checkFold(t, around, upOf("a", 1, "y", false), upOf("c", 3, "x", false))
	}
}

// Whatever the order in which they come, they stand ascending, a beginning ahead of what goes on, digits ahead of letters.
func TestFoldRecsOfEachOrder(t *testing.T) {
	ids := []string{"0", "10", "9", "a", "aa", "ab", "b", "zzzzzzzz"}
	for _, order := range orders([]int{0, 1, 2, 3, 4}) {
		for from := range 4 {
			var l []impl.Rec
			want := []impl.Up{}
			for _, at := range order {
				l = append(l, makeRec(ids[from+at], 10+at))
			}
			for _, at := range order {
				l = append(l, dataRec(ids[from+at], 0, fmt.Sprint("data", at)))
			}
			for at := range 5 {
				want = append(want, upOf(ids[from+at], 10+at, fmt.Sprint("data", at), false))
			}
			checkFold(t, l, want...)
			for at := range 5 {
				checkFold(t, append(l, dropRec(ids[from+at])), slices.Delete(slices.Clone(want), at, at+1)...)
			}
		}
	}
}

// One that does not fit, as the first, at each place in the middle, and as the last.
func TestFoldRecsOfOneThatDoesNotFit(t *testing.T) {
	good := recs(makeRec("b", 6), dataRec("b", 0, "123"), makeRec("a", 0), doneRec("a"), dataRec("b", 3, "456"), doneRec("b"), dropRec("a"), makeRec("c", 1))
	checkFold(t, good, upOf("b", 6, "123456", true), upOf("c", 1, "", false))
	for _, wrong := range slices.Concat(wrongKinds("x"), wrongKinds("b"), recs(dropRec("x"), doneRec("x"), dataRec("x", 0, "1"), dataRec("b", 9, "1"))) {
		for at := range len(good) + 1 {
			checkNoFold(t, slices.Insert(slices.Clone(good), at, wrong)...)
			checkNoFold(t, append(slices.Clone(good[:at]), wrong)...)
		}
	}
	for at := range good {
		less := slices.Delete(slices.Clone(good), at, at+1)
		if want, ok := docFold(less); ok {
			checkFold(t, less, want...)
		} else {
			checkNoFold(t, less...)
		}
	}
}

// wrongKinds are records of this upload whose Kind is none of the four.
func wrongKinds(id string) []impl.Rec {
	var l []impl.Rec
	for _, kind := range []int{0, 5, -1, 6, -4, 255, 256, 257, 260, 1<<32 + 1, math.MaxInt, math.MinInt, math.MinInt + 1} {
		l = append(l, impl.Rec{Kind: kind, Id: id}, impl.Rec{Kind: kind, Id: id, N: 3}, impl.Rec{Kind: kind, Id: id, Data: []byte("x")})
	}
	return l
}

// Of one that is not there, of one that has begun, of one that is whole, and of one that is done.
func TestFoldRecsOfWrongKinds(t *testing.T) {
	for _, id := range []string{"", "x", "X"} {
		for _, r := range wrongKinds(id) {
			checkNoFold(t, r)
			checkNoFold(t, makeRec(id, 5), r)
			checkNoFold(t, makeRec(id, 0), r)
			checkNoFold(t, makeRec(id, 0), doneRec(id), r)
			checkNoFold(t, makeRec(id, 0), dropRec(id), r)
		}
	}
}

// oddNumbers are what no record on a disk has as N.
var oddNumbers = []int{-1, -30, math.MinInt, math.MinInt + 1, topNumber + 1, 1 << 32, math.MaxInt}

// oddIds are what no request has as Id, ascending.
var oddIds = []string{"", "\x00", "-", "A", "Aa", "aaaaaaaaa", "b c", "é", "\xff"}

// oddly are the record with one thing that no record on a disk has, and that none of its Kind's reasons names.
func oddly(r impl.Rec) []impl.Rec {
	var l []impl.Rec
	for _, epoch := range []int{-1, 10001, math.MinInt, math.MaxInt} {
		odd := r
		odd.Epoch = epoch
		l = append(l, odd)
	}
	for _, seq := range []int{-1, 200, math.MinInt, math.MaxInt} {
		odd := r
		odd.Seq = seq
		l = append(l, odd)
	}
	if r.Kind == impl.RecData {
		return l
	}
	for _, size := range []int{1, 24, 25, 300} {
		odd := r
		odd.Data = []byte(longSector(size))
		l = append(l, odd)
	}
	if r.Kind == impl.RecMake {
		return l
	}
	for _, n := range append([]int{1, 11, 3000}, oddNumbers...) {
		odd := r
		odd.N = n
		l = append(l, odd)
	}
	return l
}

// What a Kind's reasons do not name changes nothing, at each place: neither whether the record fits, nor what it makes.
func TestFoldRecsOfWhatNoReasonNames(t *testing.T) {
	good := recs(makeRec("b", 6), dataRec("b", 0, "123"), makeRec("a", 0), doneRec("a"), dataRec("b", 3, "456"), doneRec("b"), dropRec("a"), makeRec("c", 1))
	for at, r := range good {
		for _, odd := range oddly(r) {
			l := slices.Clone(good)
			l[at] = odd
			checkFold(t, l, upOf("b", 6, "123456", true), upOf("c", 1, "", false))
		}
	}
}

func TestFoldRecsOfAnyId(t *testing.T) {
	for _, id := range oddIds {
		l := recs(makeRec(id, 2), dataRec(id, 0, "x"), dataRec(id, 1, "y"), doneRec(id), dropRec(id))
		checkFold(t, l[:1], upOf(id, 2, "", false))
		checkFold(t, l[:2], upOf(id, 2, "x", false))
		checkFold(t, l[:3], upOf(id, 2, "xy", false))
		checkFold(t, l[:4], upOf(id, 2, "xy", true))
		checkFold(t, l)
		checkNoFold(t, makeRec(id, 2), makeRec(id, 2))
		for _, r := range l[1:] {
			checkNoFold(t, r)
			checkNoFold(t, makeRec("a", 2), r)
		}
	}
	var l []impl.Rec
	var want []impl.Up
	for i, id := range oddIds {
		l = append(l, makeRec(id, i))
		want = append(want, upOf(id, i, "", false))
	}
	checkFold(t, l, want...)
	slices.Reverse(l)
	checkFold(t, l, want...)
	checkNoFold(t, slices.Concat(l, manyMakes(2))...)
}

// A Want below nought leaves no room, not even for no bytes, and is never reached.
func TestFoldRecsOfAnyWant(t *testing.T) {
	for _, want := range oddNumbers {
		begun := recs(makeRec("a", want))
		checkFold(t, begun, upOf("a", want, "", false))
		checkFold(t, append(begun, dropRec("a")))
		checkNoFold(t, append(begun, doneRec("a"))...)
		for _, size := range []int{0, 1, 24, 25} {
			one := append(begun, dataRec("a", 0, longSector(size)))
			if want < 0 {
				checkNoFold(t, one...)
				continue
			}
			checkFold(t, one, upOf("a", want, longSector(size), false))
			checkFold(t, append(one, dataRec("a", size, "x")), upOf("a", want, longSector(size)+"x", false))
			checkNoFold(t, append(one, doneRec("a"))...)
		}
	}
}

// No bytes at all, and more than ChunkLen of them, fit as long as Want is not passed.
func TestFoldRecsOfDataOfAnyLength(t *testing.T) {
	for _, size := range []int{0, 25, 48, 300, 5000} {
		text := longSector(size)
		whole := recs(makeRec("a", size), dataRec("a", 0, text))
		checkFold(t, whole, upOf("a", size, text, false))
		checkFold(t, append(whole, doneRec("a")), upOf("a", size, text, true))
		checkFold(t, append(whole, dataRec("a", size, "")), upOf("a", size, text, false))
		checkFold(t, append(whole, dataRec("a", size, ""), doneRec("a")), upOf("a", size, text, true))
		checkNoFold(t, append(whole, dataRec("a", size, "x"))...)
		checkNoFold(t, append(whole, dataRec("a", size+1, ""))...)
		checkNoFold(t, append(whole, dataRec("a", size-1, ""))...)
		checkNoFold(t, append(whole, doneRec("a"), dataRec("a", size, ""))...)
		checkNoFold(t, makeRec("a", size), dataRec("a", 0, text+"x"))
	}
	checkNoFold(t, dataRec("a", 0, ""))
	checkNoFold(t, makeRec("b", 0), dataRec("a", 0, ""))
}

// Epoch and Seq are ScanRecs' matter: records fold in the order in which they are handed in.
func TestFoldRecsOfAnySeqAndEpoch(t *testing.T) {
	l := recs(makeRec("a", 3), dataRec("a", 0, "xyz"), doneRec("a"))
	for _, x := range [][2]int{{0, 0}, {199, 10000}, {5, 7}, {-1, -1}, {200, 10001}} {
		for i := range l {
			one := slices.Clone(l)
			one[i].Seq, one[i].Epoch = x[0], x[1]
			checkFold(t, one, upOf("a", 3, "xyz", true))
		}
	}
}

// nextRec draws a record that fits mostly, by the uploads that are there.
func (d *drawer) nextRec(ups []impl.Up) impl.Rec {
	id := drawn(d, "a", "b", "c", "d", "ab", "0", fmt.Sprint("u", d.draw(9)))
	if d.draw(20) == 0 {
		return d.nearRec()
	}
	if len(ups) == 0 || d.draw(5) == 0 {
		return makeRec(id, drawn(d, 0, 1, d.draw(50), d.draw(100), topNumber))
	}
	u := drawn(d, ups...)
	if d.draw(30) == 0 {
		u.Id = id
	}
	off := len(u.Data) + drawn(d, 0, 0, 0, 0, 0, 0, 0, 0, 0, 0, 0, -1, 1)
	left := min(24, max(1, u.Want-len(u.Data)))
	switch d.draw(12) {
	case 0:
		return dropRec(u.Id)
	case 1, 2:
		return doneRec(u.Id)
	case 3:
		return dataRec(u.Id, off, string(d.bytes(1+d.draw(24))))
	case 4:
		return dataRec(u.Id, off, string(d.bytes(left)))
	}
	if len(u.Data) == u.Want {
		return doneRec(u.Id)
	}
	return dataRec(u.Id, off, string(d.bytes(1+d.draw(left))))
}

func TestFoldRecsByTheChapter(t *testing.T) {
	d := drawer(1400)
	right := 0
	for range 4000 {
		var l []impl.Rec
		for range d.draw(40) {
			ups, ok := docFold(l)
			if !ok && d.draw(4) != 0 {
				l = l[:len(l)-1]
				continue
			}
			r := d.nextRec(ups)
			if d.draw(10) == 0 {
				r = drawn(&d, oddly(r)...)
			}
			l = append(l, r)
		}
		want, ok := docFold(l)
		if !ok {
			checkNoFold(t, l...)
			continue
		}
		right++
		checkFold(t, l, want...)
	}
	if right < 500 || right > 3900 {
		t.Errorf("%d lists of 4000 fold", right)
	}
}

// onDisk is the text of each record, with this Epoch, and with Seqs from a first one on.
func onDisk(epoch int, from int, l []impl.Rec) []string {
	var out []string
	for i, r := range l {
		r.Epoch, r.Seq = epoch, from+i
		out = append(out, recBytes(r))
	}
	return out
}

// storeBy has so many sectors, with these records of this Epoch in the first ones; none of them is sure.
func storeBy(count int, epoch int, l ...impl.Rec) impl.Store {
	s := impl.Store{Disk: impl.Disk{Now: make([]string, count), Sure: make([]string, count)}, Epoch: epoch, Next: len(l)}
	copy(s.Disk.Now, onDisk(epoch, 0, l))
	s.Ups, _ = docFold(l)
	return s
}

// behind is the store with these records behind its last one, by the chapter's words.
func behind(s impl.Store, l ...impl.Rec) impl.Store {
	next := impl.Store{Disk: impl.Disk{Now: slices.Clone(s.Disk.Now), Sure: s.Disk.Sure}, Epoch: s.Epoch, Next: s.Next + len(l)}
	copy(next.Disk.Now[s.Next:], onDisk(s.Epoch, s.Next, l))
	next.Ups, _ = docFold(slices.Concat(impl.ScanRecs(s.Disk)[:s.Next], l))
	return next
}

// withSector is the store with this text in a sector, as it is read.
func withSector(s impl.Store, i int, text string) impl.Store {
	s.Disk.Now = sectorPut(s.Disk.Now, i, text)
	return s
}

func checkStoreOk(t *testing.T, s impl.Store, want bool) {
	t.Helper()
	if got := impl.StoreOk(s); got != want {
		t.Errorf("StoreOk of (%s) is %v", storeTitle(s), got)
	}
	if got := docStoreOk(s); got != want {
		t.Errorf("docStoreOk of (%s) is %v", storeTitle(s), got)
	}
}

// docStoreOk goes through the sectors one by one.
func docStoreOk(s impl.Store) bool {
	if !impl.DiskOk(s.Disk) || s.Epoch < 0 || s.Epoch > 10000 || s.Next < 0 || s.Next > len(s.Disk.Now) {
		return false
	}
	l := impl.ScanRecs(s.Disk)
	ups, ok := docFold(l)
	if !ok || len(l) != s.Next || !sameUps(ups, s.Ups) {
		return false
	}
	for i, text := range s.Disk.Now {
		r, ok := impl.GetRec(text)
		if ok && (r.Epoch > s.Epoch || r.Epoch == s.Epoch && i >= s.Next) {
			return false
		}
	}
	return true
}

// A storeOp is one of the four calls that give a store and a code.
type storeOp struct {
	call string
	id   string
	n    int
	data string
}

func making(id string, want int) storeOp              { return storeOp{"MakeUp", id, want, ""} }
func putting(id string, off int, data string) storeOp { return storeOp{"PutUp", id, off, data} }
func finishing(id string, sum int) storeOp            { return storeOp{"DoneUp", id, sum, ""} }
func dropping(id string) storeOp                      { return storeOp{"DropUp", id, 0, ""} }

func (o storeOp) do(s impl.Store) (impl.Store, int) {
	switch o.call {
	case "MakeUp":
		return impl.MakeUp(s, o.id, o.n)
	case "PutUp":
		return impl.PutUp(s, o.id, o.n, []byte(o.data))
	case "DoneUp":
		return impl.DoneUp(s, o.id, o.n)
	}
	return impl.DropUp(s, o.id)
}

func (o storeOp) title(s impl.Store) string {
	return fmt.Sprintf("%s %.12q %d, %d bytes, of (%s)", o.call, o.id, o.n, len(o.data), storeTitle(s))
}

// recs are those that the call writes where nothing is against it.
func (o storeOp) recs() []impl.Rec {
	switch o.call {
	case "MakeUp":
		return recs(makeRec(o.id, o.n))
	case "DoneUp":
		return recs(doneRec(o.id))
	case "DropUp":
		return recs(dropRec(o.id))
	}
	var l []impl.Rec
	for at := 0; at < len(o.data); at += 24 {
		l = append(l, dataRec(o.id, o.n+at, o.data[at:min(at+24, len(o.data))]))
	}
	return l
}

// answer is, by the chapter's words, the code, and the records that are written.
func (o storeOp) answer(s impl.Store) (int, []impl.Rec) {
	good := docStoreOk(s) && docRecOk(dropRec(o.id))
	var there *impl.Up
	for i := range s.Ups {
		if s.Ups[i].Id == o.id {
			there = &s.Ups[i]
		}
	}
	switch {
	case !good, o.call == "MakeUp" && (o.n < 0 || o.n > topWant), o.call == "PutUp" && (o.data == "" || len(o.data) > 400):
		return impl.StoreForm, nil
	case o.call != "MakeUp" && there == nil:
		return impl.StoreNone, nil
	case o.call == "MakeUp" && there != nil:
		return impl.StoreThere, nil
	case o.call == "PutUp" && (there.Done || o.n != len(there.Data) || len(there.Data)+len(o.data) > there.Want):
		return impl.StorePlace, nil
	case o.call == "DoneUp" && len(there.Data) < there.Want:
		return impl.StorePlace, nil
	}
	l := o.recs()
	if o.call == "DoneUp" && there.Done {
		l = nil
	}
	switch {
	case len(l) > len(s.Disk.Now)-s.Next, o.call == "MakeUp" && len(s.Ups) == 10:
		return impl.StoreFull, nil
	case o.call == "DoneUp" && o.n != sumOf(string(there.Data)):
		return impl.StoreSum, nil
	}
	return impl.StoreGood, l
}

// checkOp asks for this code, with the records that are written behind the store's last one, else with the store.
func checkOp(t *testing.T, s impl.Store, o storeOp, code int) impl.Store {
	t.Helper()
	wantCode, l := o.answer(s)
	if wantCode != code {
		t.Errorf("%s: the chapter's words give code %d, not %d", o.title(s), wantCode, code)
	}
	want := s
	if code == impl.StoreGood {
		want = behind(s, l...)
	}
	got, gotCode := o.do(s)
	if gotCode != code || !sameStore(got, want) {
		t.Errorf("%s: code %d, (%s), not %d, (%s)", o.title(s), gotCode, storeTitle(got), code, storeTitle(want))
	}
	if gotCode == impl.StoreGood && !impl.StoreOk(got) {
		t.Errorf("%s: (%s) is not StoreOk", o.title(s), storeTitle(got))
	}
	return got
}

func TestStoreNew(t *testing.T) {
	for _, n := range []int{0, 1, 2, 100, 199, 200} {
		s := impl.StoreNew(n)
		if !sameStore(s, impl.Store{Disk: impl.Disk{Now: make([]string, n), Sure: make([]string, n)}}) {
			t.Errorf("StoreNew of %d is (%s)", n, storeTitle(s))
		}
		checkStoreOk(t, s, true)
	}
	for _, n := range slices.Concat(greatNumbers, []int{-200, -2, -1, 201, 202, 256, 1000}) {
		s := impl.StoreNew(n)
		if !sameStore(s, impl.Store{}) {
			t.Errorf("StoreNew of %d is (%s)", n, storeTitle(s))
		}
		checkStoreOk(t, s, true)
	}
}

// crashed has records of three Epochs, with stale ones of lower Epochs behind them, and behind a gap.
func crashed() impl.Store {
	s := storeBy(12, 2, makeRec("b", 60), dataRec("b", 0, text24), makeRec("a", 0))
	s.Epoch = 7
	s = behind(s, doneRec("a"), dataRec("b", 24, text24))
	s.Epoch = 9
	copy(s.Disk.Now[5:], onDisk(4, 5, recs(doneRec("b"), dropRec("b"))))
	copy(s.Disk.Now[8:], onDisk(8, 8, recs(makeRec("x", 5), makeRec("b", 4), dropRec("x"))))
	return s
}

// goodStores are StoreOk, on disks with sectors that are sure and such that are not.
func goodStores() []impl.Store {
	whole := recs(makeRec("b", 30), dataRec("b", 0, text24), makeRec("a", 0), dataRec("b", 24, "123456"), doneRec("b"), makeRec("c", 3), dropRec("c"))
	l := []impl.Store{{}, impl.StoreNew(1), impl.StoreNew(8), impl.StoreNew(200), crashed(), storeBy(3, 5), storeBy(3, 10000)}
	for count := range len(whole) + 1 {
		l = append(l, storeBy(count, 0, whole[:count]...), storeBy(count+1, 3, whole[:count]...), storeBy(20, 10000, whole[:count]...))
	}
	l = append(l, storeBy(11, 1, manyMakes(10)...), storeBy(10, 1, manyMakes(10)...), storeBy(30, 1, append(manyMakes(10), dropRec("u3"))...), storeBy(9, 1, manyMakes(9)...))
	l = append(l, storeBy(40, 0, makeRec("z", topNumber), dataRec("z", 0, text24), dataRec("z", 24, text24)))
	// Sectors that are no records, or such of another Seq, are stale as well.
	l = append(l, withSector(storeBy(6, 3, whole[:3]...), 3, "no record"), withSector(storeBy(6, 3, whole[:3]...), 4, longSector(64)))
	l = append(l, withSector(storeBy(6, 3, whole[:3]...), 3, onDisk(2, 7, whole[3:4])[0]), withSector(storeBy(6, 3, whole[:3]...), 5, onDisk(0, 0, whole[:1])[0]))
	full := storeBy(200, 2, makeRec("f", 5000))
	for i := range 199 {
		full = behind(full, dataRec("f", 24*i, longSector(24)))
	}
	l = append(l, full)
	for i := range l {
		if i%3 == 1 {
			l[i].Disk.Sure = slices.Clone(l[i].Disk.Now)
		}
		if i%3 == 2 {
			l[i].Disk.Sure = manySectors(len(l[i].Disk.Now), "sure")
		}
	}
	return l
}

// wrongStores are not StoreOk, each by one thing that is changed in one that is.
func wrongStores() []impl.Store {
	var l []impl.Store
	for _, s := range goodStores() {
		l = append(l, wrongNumbers(s)...)
		l = append(l, wrongUps(s)...)
		l = append(l, wrongSectors(s)...)
	}
	for _, d := range wrongDisks() {
		l = append(l, impl.Store{Disk: d})
	}
	// Records that do not fit, with whatever Ups.
	for _, s := range []impl.Store{storeBy(3, 0, doneRec("a")), storeBy(3, 0, makeRec("a", 1), makeRec("a", 1)), storeBy(20, 2, manyMakes(11)...)} {
		l = append(l, s)
		s.Ups = []impl.Up{upOf("a", 1, "", false)}
		l = append(l, s)
		s.Ups, s.Next = manyUps(10), s.Next-1
		l = append(l, s)
		s.Ups, s.Next = nil, 0
		l = append(l, s)
	}
	return l
}

func wrongNumbers(s impl.Store) []impl.Store {
	var l []impl.Store
	for _, next := range []int{s.Next - 1, s.Next + 1, -1, 200, 201, math.MinInt, math.MaxInt, s.Next + 1<<32} {
		if next != s.Next {
			one := s
			one.Next = next
			l = append(l, one)
		}
	}
	epochs := []int{-1, 10001, 20000, math.MinInt, math.MaxInt, s.Epoch + 1<<32}
	if s.Next > 0 {
		last, _ := impl.GetRec(s.Disk.Now[s.Next-1])
		epochs = append(epochs, last.Epoch-1)
	}
	for _, text := range s.Disk.Now[s.Next:] {
		if r, ok := impl.GetRec(text); ok {
			epochs = append(epochs, r.Epoch, r.Epoch-1)
		}
	}
	for _, epoch := range epochs {
		one := s
		one.Epoch = epoch
		l = append(l, one)
	}
	return l
}

func wrongUps(s impl.Store) []impl.Store {
	var l []impl.Store
	change := func(ups []impl.Up) {
		one := s
		one.Ups = ups
		l = append(l, one)
	}
	for i, u := range s.Ups {
		changed := func(other impl.Up) {
			ups := slices.Clone(s.Ups)
			ups[i] = other
			change(ups)
		}
		for _, id := range []string{"", "A", u.Id + "0", "zz", strings.ToUpper(u.Id)} {
			changed(upOf(id, u.Want, string(u.Data), u.Done))
		}
		for _, want := range []int{u.Want - 1, u.Want + 1, -1, math.MaxInt, u.Want + 1<<32} {
			changed(upOf(u.Id, want, string(u.Data), u.Done))
		}
		for at := range min(30, len(u.Data)) {
			b := slices.Clone(u.Data)
			b[at] ^= 1 << (at % 8)
			changed(upOf(u.Id, u.Want, string(b), u.Done))
		}
		if len(u.Data) > 0 {
			changed(upOf(u.Id, u.Want, string(u.Data[1:]), u.Done))
			changed(upOf(u.Id, u.Want, string(u.Data[:len(u.Data)-1]), u.Done))
		}
		changed(upOf(u.Id, u.Want, string(u.Data)+"\x00", u.Done))
		changed(upOf(u.Id, u.Want, string(u.Data), !u.Done))
		change(slices.Concat(s.Ups[:i], s.Ups[i+1:]))
		change(slices.Concat(s.Ups[:i], []impl.Up{u}, s.Ups[i:]))
		for j := range i {
			ups := slices.Clone(s.Ups)
			ups[i], ups[j] = ups[j], ups[i]
			change(ups)
		}
	}
	change(append(slices.Clone(s.Ups), upOf("zz", 5, "", false)))
	change(append([]impl.Up{{}}, s.Ups...))
	return l
}

// wrongSectors has other records than those that made Ups, or such that are not stale.
func wrongSectors(s impl.Store) []impl.Store {
	var l []impl.Store
	for i, text := range s.Disk.Now[:s.Next] {
		if i < 4 || i == s.Next-1 {
			l = append(l, withSector(s, i, ""), withSector(s, i, text[:len(text)-1]), withSector(s, i, onDisk(s.Epoch, i, recs(makeRec("q", 9)))[0]))
		}
	}
	for i := s.Next; i < min(s.Next+6, len(s.Disk.Now)); i++ {
		for _, epoch := range []int{s.Epoch, s.Epoch + 1, 10000} {
			if epoch <= 10000 {
				l = append(l, withSector(s, i, onDisk(epoch, i, recs(makeRec("q", 9)))[0]), withSector(s, i, onDisk(epoch, (i+1)%200, recs(dropRec("q")))[0]))
			}
		}
	}
	if len(s.Disk.Now) > 0 {
		short, long := s, withSector(s, len(s.Disk.Now)-1, longSector(65))
		short.Disk.Sure = s.Disk.Sure[1:]
		l = append(l, short, long)
		long = s
		long.Disk.Sure = sectorPut(s.Disk.Sure, 0, longSector(65))
		l = append(l, long)
	}
	return l
}

func TestStoreOk(t *testing.T) {
	for _, s := range goodStores() {
		checkStoreOk(t, s, true)
		s.Ups = append([]impl.Up{}, s.Ups...)
		for i := range s.Ups {
			s.Ups[i].Data = append([]byte{}, s.Ups[i].Data...)
		}
		checkStoreOk(t, s, true)
		// An Epoch may be above those of its records, but for the greatest.
		for _, epoch := range []int{s.Epoch, 9999, 10000} {
			s.Epoch = max(s.Epoch, epoch)
			checkStoreOk(t, s, true)
		}
	}
}

func TestStoreOkOfWrongStores(t *testing.T) {
	l := wrongStores()
	if len(l) < 500 {
		t.Errorf("%d wrong stores", len(l))
	}
	for _, s := range l {
		checkStoreOk(t, s, false)
	}
}

func TestStoreOkByEpochs(t *testing.T) {
	for _, last := range []int{0, 1, 5, 9999, 10000} {
		s := storeBy(4, last, makeRec("a", 3), dataRec("a", 0, "xyz"))
		for _, epoch := range slices.Concat(greatNumbers, []int{-1, 0, 1, 4, 5, 6, 9998, 9999, 10000, 10001}) {
			s.Epoch = epoch
			checkStoreOk(t, s, epoch >= last && epoch <= 10000)
		}
	}
	for _, epoch := range []int{-1, 0, 1, 10000, 10001} {
		checkStoreOk(t, impl.Store{Epoch: epoch}, epoch >= 0 && epoch <= 10000)
	}
}

// A record in a sector from Next on is stale only where its Epoch is below the store's, wherever it stands and whatever it is.
func TestStoreOkByStaleRecords(t *testing.T) {
	for last := 3; last <= 5; last++ {
		s := storeBy(8, last, makeRec("a", 30), dataRec("a", 0, text24))
		for at := 2; at < 8; at++ {
			for epoch := range 9 {
				for _, r := range recs(makeRec("a", 3), dataRec("a", 24, "x"), dropRec("a"), doneRec("q")) {
					for _, seq := range []int{at, at + 1, 0, 199} {
						live := at == 2 && seq == 2 && epoch >= last
						one := withSector(s, at, onDisk(epoch, seq, recs(r))[0])
						for mine := last; mine < 9; mine++ {
							one.Epoch = mine
							checkStoreOk(t, one, !live && epoch < mine)
						}
					}
				}
			}
		}
	}
	// The first of all sectors may be stale by its Seq alone.
	s := withSector(storeBy(3, 4), 0, onDisk(3, 1, recs(makeRec("a", 1)))[0])
	checkStoreOk(t, s, true)
	s.Epoch = 3
	checkStoreOk(t, s, false)
}

// wrongIds are not Ids, each in its way.
var wrongIds = []string{"", "abcdefghi", strings.Repeat("a", 256), strings.Repeat("a", 264), "A", "aB", "a b", "a-", "/", "`", "{", ":", "@", "\x00", "a\x00", "\xff", "é"}

func TestMakeUp(t *testing.T) {
	for _, want := range []int{0, 1, 24, 400, 999999, topWant} {
		s := checkOp(t, impl.StoreNew(2), making("up1", want), impl.StoreGood)
		wantDisk := impl.Disk{Now: []string{recBytes(makeRec("up1", want)), ""}, Sure: []string{"", ""}}
		if !sameStore(s, impl.Store{Disk: wantDisk, Next: 1, Ups: []impl.Up{upOf("up1", want, "", false)}}) {
			t.Errorf("MakeUp of %d: (%s)", want, storeTitle(s))
		}
		checkOp(t, s, making("up1", want), impl.StoreThere)
		checkOp(t, s, making("up2", want), impl.StoreGood)
		checkOp(t, crashed(), making("up1", want), impl.StoreGood)
	}
	for _, id := range []string{"a", "z", "0", "9", "zzzzzzzz", "01234567"} {
		checkOp(t, impl.StoreNew(1), making(id, 5), impl.StoreGood)
	}
}

func TestMakeUpOfWrongForm(t *testing.T) {
	for _, s := range goodStores() {
		for _, want := range slices.Concat(greatNumbers, []int{-topWant, -1, topWant + 1, topNumber, topNumber + 1}) {
			checkOp(t, s, making("new", want), impl.StoreForm)
			checkOp(t, s, making("b", want), impl.StoreForm)
		}
		for _, id := range wrongIds {
			checkOp(t, s, making(id, 5), impl.StoreForm)
			checkOp(t, s, making(id, -1), impl.StoreForm)
		}
	}
}

func TestMakeUpOfMany(t *testing.T) {
	s := impl.StoreNew(30)
	for i := range 10 {
		s = checkOp(t, s, making(fmt.Sprint("u", 9-i), 5), impl.StoreGood)
	}
	checkOp(t, s, making("x", 5), impl.StoreFull)
	checkOp(t, s, making("u4", 5), impl.StoreThere)
	s = checkOp(t, s, dropping("u4"), impl.StoreGood)
	s = checkOp(t, s, making("x", 5), impl.StoreGood)
	checkOp(t, s, making("u4", 5), impl.StoreFull)
}

func TestMakeUpUpToTheLastSector(t *testing.T) {
	checkOp(t, impl.StoreNew(0), making("a", 5), impl.StoreFull)
	for count := 1; count <= 10; count++ {
		s := impl.StoreNew(count)
		for i := range count {
			s = checkOp(t, s, making(fmt.Sprint("u", i), 5), impl.StoreGood)
		}
		checkOp(t, s, making("x", 5), impl.StoreFull)
		checkOp(t, s, making("u0", 5), impl.StoreThere)
	}
	full := goodStores()[len(goodStores())-1]
	if full.Next != 200 {
		t.Errorf("a full store has %d records", full.Next)
	}
	checkOp(t, full, making("x", 0), impl.StoreFull)
	checkOp(t, full, dropping("f"), impl.StoreFull)
}

func TestPutUpByLengths(t *testing.T) {
	for size, sectors := range map[int]int{1: 1, 2: 1, 23: 1, 24: 1, 25: 2, 47: 2, 48: 2, 49: 3, 72: 3, 73: 4, 384: 16, 385: 17, 399: 17, 400: 17} {
		for _, want := range []int{size, size + 1, topWant} {
			s := checkOp(t, impl.StoreNew(2+sectors), making("a", want), impl.StoreGood)
			one := checkOp(t, s, putting("a", 0, longSector(size)), impl.StoreGood)
			if one.Next != 1+sectors || one.Disk.Now[1+sectors] != "" {
				t.Errorf("%d bytes in %d sectors", size, one.Next-1)
			}
			// Just as many sectors as are needed, and one fewer.
			checkOp(t, storeBy(1+sectors, 0, makeRec("a", want)), putting("a", 0, longSector(size)), impl.StoreGood)
			checkOp(t, storeBy(sectors, 0, makeRec("a", want)), putting("a", 0, longSector(size)), impl.StoreFull)
			checkOp(t, storeBy(1, 0, makeRec("a", want)), putting("a", 0, longSector(size)), impl.StoreFull)
		}
		checkOp(t, storeBy(30, 0, makeRec("a", size-1)), putting("a", 0, longSector(size)), impl.StorePlace)
		checkOp(t, storeBy(30, 0, makeRec("a", 0)), putting("a", 0, longSector(size)), impl.StorePlace)
	}
	s := storeBy(30, 0, makeRec("a", topWant))
	for _, size := range []int{0, 401, 402, 425, 656, 65536, 65537, 1000000} {
		checkOp(t, s, putting("a", 0, longSector(size)), impl.StoreForm)
		checkOp(t, s, putting("b", 0, longSector(size)), impl.StoreForm)
		checkOp(t, s, putting("a", 5, longSector(size)), impl.StoreForm)
	}
}

// The bytes of the records, written out: each piece from where it stands on.
func TestPutUpInPieces(t *testing.T) {
	s, _ := impl.MakeUp(impl.StoreNew(6), "a", 60)
	s.Epoch = 5
	s, _ = impl.PutUp(s, "a", 0, []byte("12"))
	s, code := impl.PutUp(s, "a", 2, []byte(text24+text24+"xyz"))
	want := []string{
		recBytes(impl.Rec{Kind: 1, Id: "a", N: 60}),
		recBytes(impl.Rec{Epoch: 5, Seq: 1, Kind: 2, Id: "a", N: 0, Data: []byte("12")}),
		recBytes(impl.Rec{Epoch: 5, Seq: 2, Kind: 2, Id: "a", N: 2, Data: []byte(text24)}),
		recBytes(impl.Rec{Epoch: 5, Seq: 3, Kind: 2, Id: "a", N: 26, Data: []byte(text24)}),
		recBytes(impl.Rec{Epoch: 5, Seq: 4, Kind: 2, Id: "a", N: 50, Data: []byte("xyz")}),
		"",
	}
	if code != impl.StoreGood || !slices.Equal(s.Disk.Now, want) || s.Next != 5 || s.Epoch != 5 {
		t.Errorf("PutUp: %d, (%s)", code, storeTitle(s))
	}
	if !sameUps(s.Ups, []impl.Up{upOf("a", 60, "12"+text24+text24+"xyz", false)}) {
		t.Errorf("PutUp: %s", upsTitle(s.Ups))
	}
}

func TestPutUpByPlaces(t *testing.T) {
	for _, begun := range []string{"", "x", text24, text24 + "x"} {
		s := storeBy(9, 2, makeRec("a", 30), makeRec("b", 30))
		if begun != "" {
			s = checkOp(t, s, putting("a", 0, begun), impl.StoreGood)
		}
		size := len(begun)
		for _, off := range slices.Concat(greatNumbers, []int{-size, -1, 0, 1, size - 2, size - 1, size, size + 1, size + 2, 29, 30, 31}) {
			code := impl.StorePlace
			if off == size {
				code = impl.StoreGood
			}
			checkOp(t, s, putting("a", off, "12345"), code)
			checkOp(t, s, putting("a", off, longSector(30-size)), code)
			checkOp(t, s, putting("a", off, longSector(31-size)), impl.StorePlace)
			checkOp(t, s, putting("a", off, ""), impl.StoreForm)
			checkOp(t, s, putting("c", off, "1"), impl.StoreNone)
		}
		whole := checkOp(t, s, putting("a", size, longSector(30-size)), impl.StoreGood)
		for _, off := range []int{0, 29, 30, 31} {
			checkOp(t, whole, putting("a", off, "1"), impl.StorePlace)
		}
		checkOp(t, whole, putting("b", 0, "1"), impl.StoreGood)
	}
}

func TestPutUpOfOneThatIsDone(t *testing.T) {
	s := storeBy(9, 2, makeRec("a", 3), dataRec("a", 0, "xyz"), doneRec("a"), makeRec("b", 0), doneRec("b"))
	for off := -1; off <= 4; off++ {
		checkOp(t, s, putting("a", off, "1"), impl.StorePlace)
		checkOp(t, s, putting("b", off, "1"), impl.StorePlace)
	}
}

func TestPutUpOfWrongIds(t *testing.T) {
	for _, s := range goodStores() {
		for _, id := range wrongIds {
			checkOp(t, s, putting(id, 0, "x"), impl.StoreForm)
		}
		checkOp(t, s, putting("nothere", 0, "x"), impl.StoreNone)
		checkOp(t, s, putting("aa", 0, "x"), impl.StoreNone)
	}
}

func TestDoneUp(t *testing.T) {
	for _, data := range []string{"x", text24, "hello", "\x00"} {
		s := storeBy(9, 2, makeRec("a", len(data)), dataRec("a", 0, data))
		sum := sumOf(data)
		done := checkOp(t, s, finishing("a", sum), impl.StoreGood)
		if done.Next != 3 || !done.Ups[0].Done || done.Disk.Now[2] != recBytes(impl.Rec{Epoch: 2, Seq: 2, Kind: 3, Id: "a"}) {
			t.Errorf("DoneUp of %q: (%s)", data, storeTitle(done))
		}
		// Done already: no record is written, and the sum is asked all the same.
		if again := checkOp(t, done, finishing("a", sum), impl.StoreGood); again.Next != 3 {
			t.Errorf("DoneUp of %q again: (%s)", data, storeTitle(again))
		}
		for _, wrong := range wrongSums(sum) {
			checkOp(t, s, finishing("a", wrong), impl.StoreSum)
			checkOp(t, done, finishing("a", wrong), impl.StoreSum)
			checkOp(t, s, finishing("b", wrong), impl.StoreNone)
		}
		checkOp(t, done, finishing("b", sum), impl.StoreNone)
	}
	s := storeBy(9, 2, makeRec("a", 0))
	checkOp(t, s, finishing("a", 0), impl.StoreGood)
	checkOp(t, s, finishing("a", 1), impl.StoreSum)
	checkOp(t, s, finishing("a", -1), impl.StoreSum)
}

// wrongSums differ from a sum by one bit, by their sign, or far.
func wrongSums(sum int) []int {
	l := []int{-sum, ^sum, sum - 1, sum + 1, sum + 1<<32, sum - 1<<32, int(int32(sum)) | math.MinInt, -1}
	for bit := range 64 {
		l = append(l, sum^1<<bit)
	}
	return slices.DeleteFunc(slices.Concat(l, greatNumbers), func(n int) bool { return n == sum })
}

func TestDoneUpWithFewerBytes(t *testing.T) {
	for size := range 24 {
		data := longSector(size)
		l := recs(makeRec("a", 24))
		if size > 0 {
			l = append(l, dataRec("a", 0, data))
		}
		for _, sum := range append(wrongSums(sumOf(data)), sumOf(data)) {
			checkOp(t, storeBy(9, 2, l...), finishing("a", sum), impl.StorePlace)
			checkOp(t, storeBy(len(l), 2, l...), finishing("a", sum), impl.StorePlace)
		}
	}
}

func TestDoneUpUpToTheLastSector(t *testing.T) {
	l := recs(makeRec("a", 3), dataRec("a", 0, "xyz"), doneRec("a"))
	sum := sumOf("xyz")
	checkOp(t, storeBy(3, 2, l[:2]...), finishing("a", sum), impl.StoreGood)
	checkOp(t, storeBy(3, 2, l[:2]...), finishing("a", sum+1), impl.StoreSum)
	checkOp(t, storeBy(2, 2, l[:2]...), finishing("a", sum), impl.StoreFull)
	checkOp(t, storeBy(2, 2, l[:2]...), finishing("a", sum+1), impl.StoreFull)
	// One that is done already needs none.
	checkOp(t, storeBy(3, 2, l...), finishing("a", sum), impl.StoreGood)
	checkOp(t, storeBy(3, 2, l...), finishing("a", sum+1), impl.StoreSum)
}

func checkUp(t *testing.T, s impl.Store, id string, want impl.Up) {
	t.Helper()
	if got, ok := impl.UpAt(s, id); !ok || !sameUp(got, want) {
		t.Errorf("UpAt %q of (%s): %s, %v", id, storeTitle(s), upsTitle([]impl.Up{got}), ok)
	}
}

func checkNoUp(t *testing.T, s impl.Store, id string) {
	t.Helper()
	got, ok := impl.UpAt(s, id)
	if len(got.Data) == 0 {
		got.Data = nil
	}
	if ok || !reflect.DeepEqual(got, impl.Up{}) {
		t.Errorf("UpAt %q of (%s): %s, %v, not the zero one and false", id, storeTitle(s), upsTitle([]impl.Up{got}), ok)
	}
}

func TestDropUpAndUpAt(t *testing.T) {
	for _, s := range goodStores() {
		for i, u := range s.Ups {
			checkUp(t, s, u.Id, u)
			code := impl.StoreGood
			if s.Next == len(s.Disk.Now) {
				code = impl.StoreFull
			}
			gone := checkOp(t, s, dropping(u.Id), code)
			if code == impl.StoreGood {
				checkNoUp(t, gone, u.Id)
				checkOp(t, gone, dropping(u.Id), impl.StoreNone)
				checkOp(t, gone, putting(u.Id, len(u.Data), "x"), impl.StoreNone)
				checkOp(t, gone, finishing(u.Id, 0), impl.StoreNone)
				if want := slices.Concat(s.Ups[:i], s.Ups[i+1:]); !sameUps(gone.Ups, want) {
					t.Errorf("DropUp %q: %s", u.Id, upsTitle(gone.Ups))
				}
			}
		}
		for _, id := range slices.Concat(wrongIds, []string{"nothere", "aa", "q", "zzzzzzzz"}) {
			checkNoUp(t, s, id)
			code := impl.StoreForm
			if !slices.Contains(wrongIds, id) {
				code = impl.StoreNone
			}
			checkOp(t, s, dropping(id), code)
			checkOp(t, s, finishing(id, 0), code)
		}
	}
	last := storeBy(2, 3, makeRec("a", 5))
	checkOp(t, last, dropping("a"), impl.StoreGood)
	checkOp(t, storeBy(1, 3, makeRec("a", 5)), dropping("a"), impl.StoreFull)
}

// UpAt asks for no right store: it is the first of its Ups that has this Id.
func TestUpAtOfWrongStores(t *testing.T) {
	s := impl.Store{Epoch: -1, Ups: []impl.Up{upOf("b", 1, "x", false), upOf("A", -3, "yz", true), upOf("b", 2, "q", true), upOf("", 4, "", true), upOf("a", 5, "w", true)}}
	checkUp(t, s, "b", s.Ups[0])
	checkUp(t, s, "A", s.Ups[1])
	checkUp(t, s, "", s.Ups[3])
	checkUp(t, s, "a", s.Ups[4])
	checkNoUp(t, s, "c")
	checkNoUp(t, impl.Store{}, "")
}

// What is asked of a store that is not StoreOk: StoreForm, ahead of every other code, and the store as it was.
func TestOpsOfWrongStores(t *testing.T) {
	ops := []storeOp{
		making("new", 5), making("b", 5), making("A", 5), making("new", -1), putting("b", 0, "x"), putting("b", 24, "123456"), putting("nothere", 0, "x"), putting("b", 0, ""),
		finishing("b", 0), finishing("a", 0), finishing("b", sumOf(text24+"123456")), finishing("nothere", 0), dropping("b"), dropping("nothere"), dropping("A"),
	}
	for _, s := range wrongStores() {
		for _, o := range ops {
			checkOp(t, s, o, impl.StoreForm)
		}
	}
}

// Which code comes first, for each pair of them that can apply at once.
func TestFirstCodeThatApplies(t *testing.T) {
	begun := recs(makeRec("a", 30), dataRec("a", 0, text24))
	full, free := storeBy(2, 0, begun...), storeBy(9, 0, begun...)
	ten, tenFull := storeBy(20, 0, manyMakes(10)...), storeBy(10, 0, manyMakes(10)...)
	whole := recs(makeRec("a", 3), dataRec("a", 0, "xyz"))
	wrong := full
	wrong.Next++
	for i, x := range []struct {
		s    impl.Store
		op   storeOp
		code int
	}{
		// StoreForm and StoreThere, StoreFull, both.
		{free, making("a", -1), impl.StoreForm}, {full, making("x", -1), impl.StoreForm}, {full, making("a", topWant+1), impl.StoreForm},
		{ten, making("x", -1), impl.StoreForm}, {tenFull, making("X", 5), impl.StoreForm}, {wrong, making("a", 5), impl.StoreForm},
		// StoreThere and StoreFull, by sectors, by uploads, by both.
		{full, making("a", 5), impl.StoreThere}, {ten, making("u5", 5), impl.StoreThere}, {tenFull, making("u5", 5), impl.StoreThere},
		// StoreForm and StoreNone, StorePlace, StoreFull.
		{free, putting("x", 0, ""), impl.StoreForm}, {free, putting("a", 0, ""), impl.StoreForm}, {full, putting("a", 24, ""), impl.StoreForm},
		{free, putting("x", 0, longSector(401)), impl.StoreForm}, {free, putting("a", 24, longSector(401)), impl.StoreForm}, {full, putting("A", 24, "1"), impl.StoreForm}, {wrong, putting("x", 24, "1"), impl.StoreForm},
		// StoreNone and StoreFull.
		{full, putting("x", 0, "1"), impl.StoreNone}, {full, finishing("x", 0), impl.StoreNone}, {full, dropping("x"), impl.StoreNone},
		// StorePlace and StoreFull, in each of its ways.
		{full, putting("a", 23, "1"), impl.StorePlace}, {full, putting("a", 24, "1234567"), impl.StorePlace}, {storeBy(2, 0, makeRec("a", 0), doneRec("a")), putting("a", 0, "1"), impl.StorePlace},
		{full, putting("a", 24, "123456"), impl.StoreFull}, {full, dropping("a"), impl.StoreFull},
		// StorePlace and StoreFull, StoreSum, both.
		{full, finishing("a", sumOf(text24)), impl.StorePlace}, {free, finishing("a", 7), impl.StorePlace}, {full, finishing("a", 7), impl.StorePlace},
		// StoreForm and StoreNone, StorePlace, StoreFull, StoreSum.
		{wrong, finishing("x", 0), impl.StoreForm}, {wrong, finishing("a", 0), impl.StoreForm}, {free, finishing("A", 0), impl.StoreForm}, {full, dropping("A"), impl.StoreForm}, {wrong, dropping("x"), impl.StoreForm},
		// StoreFull and StoreSum.
		{storeBy(2, 0, whole...), finishing("a", 7), impl.StoreFull}, {storeBy(3, 0, whole...), finishing("a", 7), impl.StoreSum},
	} {
		if _, code := x.op.do(x.s); code != x.code {
			t.Errorf("%d: %s: code %d, not %d", i, x.op.title(x.s), code, x.code)
		}
		checkOp(t, x.s, x.op, x.code)
	}
}

func TestSyncStore(t *testing.T) {
	for _, s := range goodStores() {
		want := s
		want.Disk = impl.Disk{Now: s.Disk.Now, Sure: s.Disk.Now}
		got := impl.SyncStore(s)
		if !sameStore(got, want) || !impl.StoreOk(got) {
			t.Errorf("SyncStore of (%s): (%s)", storeTitle(s), storeTitle(got))
		}
		if again := impl.SyncStore(got); !sameStore(again, want) {
			t.Errorf("SyncStore of (%s) again: (%s)", storeTitle(s), storeTitle(again))
		}
	}
	for _, s := range wrongStores() {
		if got := impl.SyncStore(s); !sameStore(got, s) {
			t.Errorf("SyncStore of (%s): (%s), not the store", storeTitle(s), storeTitle(got))
		}
	}
}

func TestSyncStoreBehindPuts(t *testing.T) {
	s := checkOp(t, impl.StoreNew(4), making("a", 48), impl.StoreGood)
	s = checkOp(t, s, putting("a", 0, text24), impl.StoreGood)
	if !slices.Equal(s.Disk.Sure, make([]string, 4)) {
		t.Errorf("sure ahead of SyncStore: %q", s.Disk.Sure)
	}
	s = impl.SyncStore(s)
	sure := slices.Clone(s.Disk.Now)
	s = checkOp(t, s, putting("a", 24, text24), impl.StoreGood)
	if !slices.Equal(s.Disk.Sure, sure) {
		t.Errorf("sure behind a put: %q", s.Disk.Sure)
	}
	checkOpen(t, impl.FallDisk(s.Disk, nil), 1, 2, upOf("a", 48, text24, false))
	checkOpen(t, impl.FallDisk(s.Disk, keptBy("nnyn")), 1, 3, upOf("a", 48, text24+text24, false))
}

// checkOpen asks for the store of this disk, that it is StoreOk, and that it opens again.
func checkOpen(t *testing.T, d impl.Disk, epoch int, next int, ups ...impl.Up) impl.Store {
	t.Helper()
	want := impl.Store{Disk: d, Epoch: epoch, Next: next, Ups: ups}
	got, ok := impl.OpenStore(d)
	if !ok || !sameStore(got, want) || !impl.StoreOk(got) {
		t.Errorf("OpenStore of (%s): (%s), %v, not (%s)", diskTitle(d), storeTitle(got), ok, storeTitle(want))
	}
	if again, ok := impl.OpenStore(got.Disk); !ok || !sameStore(again, got) {
		t.Errorf("OpenStore of (%s) again: (%s), %v", diskTitle(d), storeTitle(again), ok)
	}
	return got
}

func checkNoOpen(t *testing.T, d impl.Disk) {
	t.Helper()
	if got, ok := impl.OpenStore(d); ok || !sameStore(got, impl.Store{}) {
		t.Errorf("OpenStore of (%s): (%s), %v, not the zero one and false", diskTitle(d), storeTitle(got), ok)
	}
}

func TestOpenStore(t *testing.T) {
	for _, n := range []int{0, 1, 5, 200} {
		checkOpen(t, impl.DiskNew(n), 0, 0)
	}
	checkOpen(t, diskOf("no|records|", "x|y|z"), 0, 0)
	s := storeBy(6, 3, makeRec("b", 5), makeRec("a", 0), doneRec("a"), dataRec("b", 0, "xy"))
	checkOpen(t, s.Disk, 4, 4, upOf("a", 0, "", true), upOf("b", 5, "xy", false))
	for _, s := range goodStores() {
		top := impl.TopEpoch(s.Disk)
		if top == 10000 {
			checkNoOpen(t, s.Disk)
			continue
		}
		checkOpen(t, s.Disk, top+1, s.Next, s.Ups...)
	}
	for _, d := range wrongDisks() {
		checkNoOpen(t, d)
	}
}

func TestOpenStoreBehindAGap(t *testing.T) {
	l := onDisk(2, 0, recs(makeRec("a", 30), dataRec("a", 0, text24), dataRec("a", 24, "123456"), doneRec("a")))
	for _, gap := range []string{"", "no record", onDisk(2, 3, recs(makeRec("a", 30)))[0], l[0]} {
		checkOpen(t, readDisk(l[0], l[1], gap, l[3]), 3, 2, upOf("a", 30, text24, false))
		checkOpen(t, readDisk(l[0], gap, l[2], l[3]), 3, 1, upOf("a", 30, "", false))
	}
	checkOpen(t, readDisk("", l[1], l[2], l[3]), 3, 0)
	checkOpen(t, readDisk(l[1], l[1], l[2], l[3]), 3, 0)
	// What does not fit is no harm behind a gap, and gives nothing where there is none.
	wrong := onDisk(2, 2, recs(doneRec("a")))[0]
	checkNoOpen(t, readDisk(l[0], l[1], wrong, ""))
	checkOpen(t, readDisk(l[0], "", wrong, ""), 3, 1, upOf("a", 30, "", false))
	checkNoOpen(t, readDisk(onDisk(2, 0, recs(doneRec("a")))[0]))
	checkNoOpen(t, readDisk(onDisk(0, 0, manyMakes(11))...))
}

// Stale records end the scan by their Epoch, and count for the Epoch that comes.
func TestOpenStoreOfStaleRecords(t *testing.T) {
	old := onDisk(2, 0, recs(makeRec("a", 30), dataRec("a", 0, text24), dataRec("a", 24, "123456"), doneRec("a")))
	newer := onDisk(5, 2, recs(dataRec("a", 24, "654321")))[0]
	checkOpen(t, readDisk(old[0], old[1], newer, old[3]), 6, 3, upOf("a", 30, text24+"654321", false))
	top := onDisk(8, 9, recs(makeRec("x", 1)))[0]
	checkOpen(t, readDisk(old[0], old[1], newer, old[3], "", top), 9, 3, upOf("a", 30, text24+"654321", false))
	checkOpen(t, readDisk("", top, ""), 9, 0)
	s := checkOpen(t, readDisk(old[0], old[1], newer, old[3]), 6, 3, upOf("a", 30, text24+"654321", false))
	s = checkOp(t, s, finishing("a", sumOf(text24+"654321")), impl.StoreGood)
	checkOpen(t, s.Disk, 7, 4, upOf("a", 30, text24+"654321", true))
}

func TestOpenStoreByEpochs(t *testing.T) {
	for _, epoch := range []int{0, 1, 9998, 9999, 10000} {
		live := readDisk(onDisk(epoch, 0, recs(makeRec("a", 3)))[0], "", "")
		stale := readDisk("", "", onDisk(epoch, 7, recs(makeRec("a", 3)))[0])
		if epoch == 10000 {
			checkNoOpen(t, live)
			checkNoOpen(t, stale)
			continue
		}
		s := checkOpen(t, live, epoch+1, 1, upOf("a", 3, "", false))
		s = checkOp(t, s, putting("a", 0, "xyz"), impl.StoreGood)
		if epoch < 9999 {
			checkOpen(t, s.Disk, epoch+2, 2, upOf("a", 3, "xyz", false))
		} else {
			checkNoOpen(t, s.Disk)
		}
		checkOpen(t, stale, epoch+1, 0)
	}
}

// op draws a call that is good mostly, by the uploads that are there.
func (d *drawer) op(s impl.Store) storeOp {
	id := drawn(d, "a", "b", "c", "ab", "0", fmt.Sprint("u", d.draw(9)))
	if len(s.Ups) == 0 || d.draw(6) == 0 {
		return making(id, drawn(d, 0, 1, d.draw(50), 1+d.draw(150), topWant, topWant+1-d.draw(3), -d.draw(2)))
	}
	u := drawn(d, s.Ups...)
	if d.draw(20) == 0 {
		u.Id = drawn(d, id, "A", "", "abcdefghi")
	}
	left := u.Want - len(u.Data)
	if left == 0 && d.draw(2) == 0 {
		return finishing(u.Id, drawn(d, sumOf(string(u.Data)), sumOf(string(u.Data)), sumOf(string(u.Data))^1<<d.draw(40)))
	}
	switch d.draw(12) {
	case 0:
		return dropping(u.Id)
	case 1:
		return finishing(u.Id, sumOf(string(u.Data)))
	case 2:
		return putting(u.Id, d.draw(len(u.Data)+2), string(d.bytes(d.draw(50))))
	case 3:
		return putting(u.Id, len(u.Data), string(d.bytes(min(left+d.draw(2), 390+d.draw(13)))))
	}
	return putting(u.Id, len(u.Data), string(d.bytes(1+d.draw(max(1, min(left, 60))))))
}

// Drawn calls, one behind the other, by the chapter's words.
func TestStoreByTheChapter(t *testing.T) {
	d := drawer(1414)
	codes := [7]int{}
	for range 300 {
		s := impl.StoreNew(drawn(&d, 1, 5, 20, 40, 40, 60, 200))
		for range 40 {
			o := d.op(s)
			code, _ := o.answer(s)
			codes[code]++
			s = checkOp(t, s, o, code)
			switch d.draw(9) {
			case 0:
				s = impl.SyncStore(s)
			case 1:
				var ok bool
				if s, ok = impl.OpenStore(impl.FallDisk(s.Disk, d.kept(len(s.Disk.Now)))); !ok {
					t.Fatal("behind a crash it does not open")
				}
			}
		}
		if t.Failed() {
			return
		}
	}
	for code, count := range codes {
		if count < 20 {
			t.Errorf("code %d came %d times: %v", code, count, codes)
		}
	}
}

// wasSure asks of each upload that was made sure: it is there with all of that and perhaps more of what came, in order.
func wasSure(t *testing.T, sure []impl.Rec, since []impl.Rec, got impl.Store) {
	t.Helper()
	for count := range len(since) + 1 {
		want, ok := docFold(slices.Concat(sure, since[:count]))
		if ok && got.Next == len(sure)+count && sameUps(got.Ups, want) {
			return
		}
	}
	t.Errorf("behind a crash: (%s), of %s sure, %s since", storeTitle(got), foldTitle(sure), foldTitle(since))
}

// Promise 14: whatever is kept of what was written since, it opens, with what was sure, and with a beginning of the rest.
func TestBehindEachCrash(t *testing.T) {
	first := recs(makeRec("b", 60), dataRec("b", 0, text24))
	since := recs(makeRec("a", 0), dataRec("b", 24, text24), doneRec("a"), dataRec("b", 48, "abcdefghijkl"), doneRec("b"), dropRec("a"), makeRec("a", 7))
	s := impl.SyncStore(storeBy(12, 0, first...))
	s = behind(s, since...)
	for mix := range 1 << len(since) {
		kept := make([]bool, 12)
		whole := 0
		for i := range since {
			kept[2+i] = mix>>i&1 == 1
			if whole == i && kept[2+i] {
				whole++
			}
		}
		ups, _ := docFold(slices.Concat(first, since[:whole]))
		epoch := 1
		x := checkOpen(t, impl.FallDisk(s.Disk, kept), epoch, 2+whole, ups...)
		// It goes on, upon what is stale, and falls again.
		if u, ok := impl.UpAt(x, "b"); ok && !u.Done && len(u.Data) < 60 {
			y := checkOp(t, x, putting("b", len(u.Data), longSector(60-len(u.Data))), impl.StoreGood)
			goOn := putting("b", len(u.Data), longSector(60-len(u.Data))).recs()
			for again := range 1 << len(goOn) {
				kept := make([]bool, 12)
				for i := range goOn {
					kept[x.Next+i] = again>>i&1 == 1
				}
				z, ok := impl.OpenStore(impl.FallDisk(y.Disk, kept))
				if !ok || !impl.StoreOk(z) {
					t.Fatalf("mix %d, then %d: it does not open", mix, again)
				}
				wasSure(t, impl.ScanRecs(x.Disk), goOn, z)
			}
		}
	}
}

// Promise 14, drawn: made sure, written, fallen and opened, again and again on one disk.
func TestBehindAnyCrash(t *testing.T) {
	d := drawer(141414)
	for range 200 {
		s := impl.StoreNew(drawn(&d, 10, 30, 80, 200))
		for round := range 12 {
			if d.draw(3) != 0 {
				s = impl.SyncStore(s)
			}
			// Behind an opening or a flush all is sure that a scan reads.
			sure := impl.ScanRecs(impl.Disk{Now: s.Disk.Sure, Sure: s.Disk.Sure})
			for range d.draw(8) {
				s, _ = d.op(s).do(s)
			}
			all := impl.ScanRecs(s.Disk)
			if len(all) < len(sure) || !sameRecs(all[:len(sure)], sure) {
				t.Fatalf("round %d: what is sure is written over", round)
			}
			kept := d.kept(len(s.Disk.Now) + 2)
			if s.Next > 0 && d.draw(4) == 0 {
				kept = slices.Repeat([]bool{true}, s.Next)
				kept[max(0, s.Next-1-d.draw(3))] = false
			}
			x, ok := impl.OpenStore(impl.FallDisk(s.Disk, kept))
			if !ok || !impl.StoreOk(x) {
				t.Fatalf("round %d: (%s) does not open", round, storeTitle(s))
			}
			wasSure(t, sure, all[len(sure):], x)
			s = x
		}
		if t.Failed() {
			return
		}
	}
}

// A roomyStore is a store with spare room behind each of its lists, and all of the memory.
type roomyStore struct {
	store     impl.Store
	now, sure []string
	ups       []impl.Up
	data      [][]byte
}

func roomyOf(s impl.Store, spare int) roomyStore {
	x := roomyStore{store: s}
	x.store.Disk.Now, x.now = roomySectors(s.Disk.Now, spare)
	x.store.Disk.Sure, x.sure = roomySectors(s.Disk.Sure, spare)
	for _, u := range s.Ups {
		var all []byte
		u.Data, all = roomy(string(u.Data), spare)
		x.ups, x.data = append(x.ups, u), append(x.data, all)
	}
	for range spare {
		x.ups = append(x.ups, upOf("spare", 7, "spare", true))
	}
	x.store.Ups = x.ups[:len(s.Ups)]
	return x
}

func (x roomyStore) sameAs(y roomyStore) bool {
	return slices.Equal(x.now, y.now) && slices.Equal(x.sure, y.sure) && sameUps(x.ups, y.ups) && slices.EqualFunc(x.data, y.data, slices.Equal)
}

func (x roomyStore) turn() {
	turnStore(impl.Store{Disk: impl.Disk{Now: x.now, Sure: x.sure}, Ups: x.ups})
}

// storeParts change each list of a store by itself, its spare room, too.
func storeParts(s impl.Store) []func() {
	l := []func(){func() { turnSectors(s.Disk.Now) }, func() { turnSectors(s.Disk.Sure) }}
	for _, u := range s.Ups {
		l = append(l, func() { turnAll(u.Data) })
	}
	return append(l, func() { turnUps(s.Ups) })
}

// turnUps changes all but the bytes of each Data.
func turnUps(l []impl.Up) {
	l = l[:cap(l)]
	for i := range l {
		l[i] = impl.Up{Id: l[i].Id + "turned", Want: l[i].Want + 1, Done: !l[i].Done}
	}
}

func turnStore(s impl.Store) {
	for _, turn := range storeParts(s) {
		turn()
	}
}

func cloneStore(s impl.Store) impl.Store {
	return roomyOf(s, 0).store
}

// storeCalls are the calls that answer a store of a store, with each code.
func storeCalls() map[string]func(impl.Store) impl.Store {
	calls := map[string]func(impl.Store) impl.Store{"SyncStore": impl.SyncStore}
	for _, o := range []storeOp{
		making("new", 5), making("b", 5), making("A", 5), making("a", 0), putting("b", 24, "12"), putting("b", 24, "123456"), putting("b", 0, text24), putting("z", 48, longSector(100)), putting("b", 0, ""), putting("nothere", 0, "x"),
		finishing("a", 0), finishing("b", sumOf(text24+"123456")), finishing("b", 7), dropping("a"), dropping("b"), dropping("u5"), dropping("nothere"), dropping("f"),
	} {
		calls[fmt.Sprint(o.call, " ", o.id, " ", o.n, " ", len(o.data))] = func(s impl.Store) impl.Store {
			next, _ := o.do(s)
			return next
		}
	}
	return calls
}

// someWrongStores are as many as a test of memory has time for.
func someWrongStores() []impl.Store {
	var l []impl.Store
	for i, s := range wrongStores() {
		if i%23 == 0 {
			l = append(l, s)
		}
	}
	return l
}

// checkStoreMemory asks: nothing is written, nothing is shared with the argument, the spare room tells nothing, and no part of the answer shares memory with another.
func checkStoreMemory(t *testing.T, title string, s impl.Store, spare int, call func(impl.Store) impl.Store) {
	t.Helper()
	title = fmt.Sprintf("%s of (%s) with %d spare", title, storeTitle(s), spare)
	want := call(cloneStore(s))
	x, kept := roomyOf(s, spare), roomyOf(s, spare)
	got := call(x.store)
	if !sameStore(got, want) {
		t.Fatalf("%s: the spare room is seen: (%s)", title, storeTitle(got))
	}
	if !x.sameAs(kept) {
		t.Fatalf("%s: the argument is written", title)
	}
	x.turn()
	if !sameStore(got, want) {
		t.Fatalf("%s: the answer shares memory with the argument", title)
	}
	kept.turn()
	turnStore(got)
	if !x.sameAs(kept) {
		t.Fatalf("%s: the argument shares memory with the answer", title)
	}
	checkParts(t, title, want, func() impl.Store { return call(cloneStore(s)) })
}

// checkParts changes each part of an answer by itself, and asks that all others are as they were.
func checkParts(t *testing.T, title string, want impl.Store, call func() impl.Store) {
	t.Helper()
	for at := range storeParts(want) {
		got, apart := call(), cloneStore(want)
		storeParts(got)[at]()
		storeParts(apart)[at]()
		if !sameStore(got, apart) {
			t.Fatalf("%s: the part %d of the answer shares memory with another", title, at)
		}
		// What is appended to one is not seen in another.
		got = call()
		_ = append(got.Disk.Now, "more")
		_ = append(got.Disk.Sure, "more")
		_ = append(got.Ups, upOf("more", 1, "", false))
		for _, u := range got.Ups {
			_ = append(u.Data, strings.Repeat("more", 30)...)
		}
		if !sameStore(got, want) {
			t.Fatalf("%s: the spare room of the answer is shared", title)
		}
	}
}

func TestMemoryOfTheStore(t *testing.T) {
	for _, s := range slices.Concat(goodStores(), someWrongStores()) {
		for title, call := range storeCalls() {
			for _, spare := range []int{0, 1, 30} {
				checkStoreMemory(t, title, s, spare, call)
			}
		}
	}
}

// All lists of a store may lie in one memory, one behind the other.
func TestListsOfAStoreInOneMemory(t *testing.T) {
	for _, s := range goodStores() {
		for title, call := range storeCalls() {
			want := call(cloneStore(s))
			sectors := slices.Concat(s.Disk.Now, s.Disk.Sure)
			var data []byte
			for _, u := range s.Ups {
				data = append(data, u.Data...)
			}
			one := impl.Store{Disk: impl.Disk{Now: sectors[:len(s.Disk.Now)], Sure: sectors[len(s.Disk.Now):]}, Epoch: s.Epoch, Next: s.Next}
			at := 0
			for _, u := range s.Ups {
				u.Data = data[at : at+len(u.Data)]
				at += len(u.Data)
				one.Ups = append(one.Ups, u)
			}
			keptSectors, keptData := slices.Clone(sectors), slices.Clone(data)
			if got := call(one); !sameStore(got, want) || !slices.Equal(sectors, keptSectors) || !slices.Equal(data, keptData) {
				t.Errorf("%s of (%s) in one memory: (%s)", title, storeTitle(s), storeTitle(got))
			}
		}
	}
}

// What is put is neither written nor kept, and what lies behind it is not read.
func TestMemoryOfWhatIsPut(t *testing.T) {
	for _, size := range []int{0, 1, 23, 24, 25, 100, 400, 401} {
		for _, spare := range []int{0, 1, 30, 500} {
			s := storeBy(30, 1, makeRec("a", topWant))
			data, all := roomy(longSector(size), spare)
			kept := slices.Clone(all)
			want, wantCode := putting("a", 0, longSector(size)).do(s)
			got, code := impl.PutUp(s, "a", 0, data)
			if code != wantCode || !sameStore(got, want) || !slices.Equal(all, kept) {
				t.Errorf("PutUp of %d bytes with %d spare: %d, (%s)", size, spare, code, storeTitle(got))
			}
			turnAll(all)
			turned := slices.Clone(all)
			if !sameStore(got, want) {
				t.Errorf("PutUp of %d bytes with %d spare: they are shared", size, spare)
			}
			turnStore(got)
			if !slices.Equal(all, turned) {
				t.Errorf("PutUp of %d bytes with %d spare: the answer shares them", size, spare)
			}
		}
	}
}

func TestMemoryOfUpAtAndStoreOk(t *testing.T) {
	for _, s := range slices.Concat(goodStores(), someWrongStores()) {
		for _, spare := range []int{0, 1, 30} {
			x, kept := roomyOf(s, spare), roomyOf(s, spare)
			if impl.StoreOk(x.store) != impl.StoreOk(s) {
				t.Errorf("StoreOk of (%s) hangs on the spare room", storeTitle(s))
			}
			checkNoUp(t, x.store, "spare")
			for i, u := range s.Ups {
				if i > 0 && s.Ups[i-1].Id == u.Id {
					continue
				}
				got, ok := impl.UpAt(x.store, u.Id)
				if !ok || !sameUp(got, u) || !x.sameAs(kept) {
					t.Errorf("UpAt %q of (%s) with %d spare: %s", u.Id, storeTitle(s), spare, upsTitle([]impl.Up{got}))
				}
				turnAll(got.Data)
				if !x.sameAs(kept) {
					t.Errorf("UpAt %q of (%s): the answer shares memory", u.Id, storeTitle(s))
				}
			}
		}
	}
}

func TestMemoryOfOpenStore(t *testing.T) {
	for _, s := range slices.Concat(goodStores(), someWrongStores()) {
		open := func(s impl.Store) impl.Store {
			next, _ := impl.OpenStore(s.Disk)
			return next
		}
		for _, spare := range []int{0, 1, 30} {
			checkStoreMemory(t, "OpenStore", s, spare, open)
		}
		// Both lists of the disk may be the same memory.
		same := cloneStore(s).Disk.Now
		checkParts(t, "OpenStore", open(impl.Store{Disk: impl.Disk{Now: slices.Clone(same), Sure: slices.Clone(same)}}), func() impl.Store {
			return open(impl.Store{Disk: impl.Disk{Now: slices.Clone(same), Sure: same}})
		})
		got := open(impl.Store{Disk: impl.Disk{Now: same, Sure: same}})
		kept := slices.Clone(same)
		turnSectors(got.Disk.Now)
		if !slices.Equal(got.Disk.Sure, kept) && impl.TopEpoch(s.Disk) < 10000 && len(got.Disk.Sure) > 0 {
			t.Errorf("OpenStore of (%s): the lists share memory", diskTitle(s.Disk))
		}
		turnSectors(got.Disk.Sure)
		if !slices.Equal(same, kept) {
			t.Errorf("OpenStore of (%s): the answer shares memory", diskTitle(s.Disk))
		}
	}
}

// roomyRecs are records with spare room behind each Data and behind the list, and all of the memory.
func roomyRecs(l []impl.Rec, spare int) ([]impl.Rec, []impl.Rec, [][]byte) {
	var all []impl.Rec
	var data [][]byte
	for _, r := range l {
		var whole []byte
		r.Data, whole = roomy(string(r.Data), spare)
		all, data = append(all, r), append(data, whole)
	}
	for range spare {
		all = append(all, dropRec("spare"))
	}
	return all[:len(l)], all, data
}

func TestMemoryOfFoldRecs(t *testing.T) {
	good := recs(makeRec("b", 60), dataRec("b", 0, text24), makeRec("a", 48), dataRec("a", 0, text24), dataRec("b", 24, text24), dataRec("a", 24, text24), doneRec("a"), makeRec("c", 1), dropRec("c"), makeRec("c", 0))
	for count := range len(good) + 1 {
		for _, l := range [][]impl.Rec{good[:count], append(slices.Clone(good[:count]), doneRec("x"))} {
			for _, spare := range []int{0, 1, 30} {
				arg, all, data := roomyRecs(l, spare)
				_, keptAll, keptData := roomyRecs(l, spare)
				want, wantOk := docFold(l)
				got, ok := impl.FoldRecs(arg)
				if ok != wantOk || !sameUps(got, want) || !sameRecs(all, keptAll) || !slices.EqualFunc(data, keptData, slices.Equal) {
					t.Errorf("FoldRecs of %s with %d spare: %s", foldTitle(l), spare, upsTitle(got))
				}
				for _, b := range data {
					turnAll(b)
				}
				if !sameUps(got, want) {
					t.Errorf("FoldRecs of %s with %d spare: the answer shares memory", foldTitle(l), spare)
				}
				fold := func() impl.Store {
					ups, _ := impl.FoldRecs(l)
					return impl.Store{Ups: ups}
				}
				checkParts(t, "FoldRecs of "+foldTitle(l), impl.Store{Ups: want}, fold)
			}
		}
	}
}

// No call keeps anything: what is done to one answer is not seen in the next, and behind a refusal all is as ahead of it.
func TestStoreAnswersAlikeAgain(t *testing.T) {
	for range 3 {
		for _, s := range goodStores() {
			for title, call := range storeCalls() {
				one, two := call(s), call(s)
				turnStore(one)
				if three := call(s); !sameStore(two, three) {
					t.Errorf("%s of (%s) hangs on the call ahead: (%s)", title, storeTitle(s), storeTitle(three))
				}
			}
			checkNoFold(t, doneRec("a"))
			checkFold(t, recs(makeRec("a", 1)), upOf("a", 1, "", false))
		}
		turnStore(impl.StoreNew(3))
		checkOpen(t, impl.StoreNew(3).Disk, 0, 0)
	}
}
