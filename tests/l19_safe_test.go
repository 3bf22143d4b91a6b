package tests

import (
	"fmt"
	"math"
	"slices"
	"strings"
	"testing"

	"loop.example/g00199/impl"
)

// The numbers of what must hold, as Safe tells them.
const (
	notWorldOk = 1
	notBegins  = 2
	isLost     = 3
	notEnds    = 4
	oneFails   = 5
)

// A safeRule is one of the four that are asked of a world alone, and what the chapter's words give.
type safeRule struct {
	name   string
	number int
	ask    func(impl.World) bool
	doc    func(impl.World) bool
}

func safeRules() []safeRule {
	return []safeRule{
		{"Begins", notBegins, impl.Begins, docBegins},
		{"NotLost", isLost, impl.NotLost, docNotLost},
		{"Ends", notEnds, impl.Ends, docEnds},
		{"NoneFails", oneFails, impl.NoneFails, docNoneFails},
	}
}

// docUp is the first upload in the store that has the client's Id.
func docUp(w impl.World, c impl.Client) (impl.Up, bool) {
	for _, u := range w.Sv.St.Ups {
		if u.Id == c.Id {
			return u, true
		}
	}
	return impl.Up{}, false
}

func docBegins(w impl.World) bool {
	for _, c := range w.Cls {
		u, there := docUp(w, c)
		if there && (!strings.HasPrefix(string(c.File), string(u.Data)) || u.Want != len(c.File)) {
			return false
		}
	}
	return true
}

func docNotLost(w impl.World) bool {
	for i, best := range w.Best {
		if i >= len(w.Cls) || best == -1 {
			continue
		}
		if u, there := docUp(w, w.Cls[i]); !there || len(u.Data) < best {
			return false
		}
	}
	return true
}

func docEnds(w impl.World) bool {
	for _, c := range w.Cls {
		if c.Step != 5 {
			continue
		}
		if u, there := docUp(w, c); !there || !u.Done || string(u.Data) != string(c.File) {
			return false
		}
	}
	return true
}

func docNoneFails(w impl.World) bool {
	for _, c := range w.Cls {
		if c.Step == 6 {
			return false
		}
	}
	return true
}

func docSafe(w impl.World) int {
	if !docWorldOk(w) {
		return notWorldOk
	}
	for _, r := range safeRules() {
		if !r.doc(w) {
			return r.number
		}
	}
	return 0
}

// checkRules asks for each rule by itself, and for Safe; not are the numbers of those that do not hold, the least one ahead.
func checkRules(t *testing.T, title string, w impl.World, not ...int) {
	t.Helper()
	for _, r := range safeRules() {
		want := !slices.Contains(not, r.number)
		if got, doc := r.ask(w), r.doc(w); got != want || doc != want {
			t.Errorf("%s: %s of (%s) is %v, by the chapter's words %v, not %v", title, r.name, worldTitle(w), got, doc, want)
		}
	}
	want := 0
	if len(not) > 0 {
		want = not[0]
	}
	if got, doc := impl.Safe(w), docSafe(w); got != want || doc != want {
		t.Errorf("%s: Safe of (%s) is %d, by the chapter's words %d, not %d", title, worldTitle(w), got, doc, want)
	}
}

// checkByTheChapter asks for what the chapter's words give.
func checkByTheChapter(t *testing.T, title string, w impl.World) int {
	t.Helper()
	for _, r := range safeRules() {
		if got, doc := r.ask(w), r.doc(w); got != doc {
			t.Errorf("%s: %s of (%s) is %v, by the chapter's words %v", title, r.name, worldTitle(w), got, doc)
		}
	}
	got, doc := impl.Safe(w), docSafe(w)
	if got != doc {
		t.Errorf("%s: Safe of (%s) is %d, by the chapter's words %d", title, worldTitle(w), got, doc)
	}
	return got
}

// recsThatMake are records that make an upload, as far as there are such.
func recsThatMake(u impl.Up) []impl.Rec {
	l := recs(makeRec(u.Id, u.Want))
	for at := 0; at < len(u.Data); at += 24 {
		l = append(l, dataRec(u.Id, at, string(u.Data[at:min(at+24, len(u.Data))])))
	}
	if u.Done {
		l = append(l, doneRec(u.Id))
	}
	return l
}

// watching is a world of these clients, to whom no answer told anything, with these uploads in its store. Where no records make them, it is not WorldOk.
func watching(ups []impl.Up, cls ...impl.Client) impl.World {
	var l []impl.Rec
	for _, u := range ups {
		l = append(l, recsThatMake(u)...)
	}
	st := storeBy(100, 1, l...)
	st.Ups = ups
	return atRest(serverOf(st), cls...)
}

func upsOf(l ...impl.Up) []impl.Up {
	return l
}

// withBest is the world in which the greatest Off that an answer told each one is this.
func withBest(w impl.World, best ...int) impl.World {
	w.Best = best
	return w
}

// otherAt is the text with one byte that is other.
func otherAt(text string, at int) string {
	b := []byte(text)
	b[at] ^= 1 << (at % 8)
	return string(b)
}

const text30 = text24 + "123456"

func TestSafeOfNoClients(t *testing.T) {
	checkRules(t, "the zero one", impl.World{})
	checkRules(t, "none", impl.WorldNew(40, nil))
	// Uploads that belong to no client may be as they are.
	ups := upsOf(upOf("a", 3, "xyz", true), upOf("b", 9, "x", false), upOf("c", 0, "", false))
	checkRules(t, "uploads alone", watching(ups))
	checkRules(t, "uploads alone, not WorldOk", watching(upsOf(upOf("b", 3, "x", true), upOf("a", 0, "x", false))), notWorldOk)
	// Nor is anything asked of a Best that is no client's.
	for _, best := range []int{-2, -1, 0, 1, topNumber, math.MaxInt, math.MinInt} {
		checkRules(t, "a Best of none", withBest(watching(ups), best), notWorldOk)
		checkRules(t, "a Best of none, no upload", withBest(impl.World{}, best, best), notWorldOk)
	}
}

func TestSafeOfNoUploads(t *testing.T) {
	for step := impl.ClMake; step <= impl.ClFail; step++ {
		not := map[int][]int{impl.ClDone: {notEnds}, impl.ClFail: {oneFails}}[step]
		for _, file := range []string{"", "x", text30} {
			for _, off := range goodOffs(len(file)) {
				c := clientOf("b", file, step, off)
				checkRules(t, "one client", watching(nil, c), not...)
				checkRules(t, "among others", watching(nil, clientOf("a", "", impl.ClAsk, 0), c, clientOf("c", "file", impl.ClSend, 2)), not...)
				// An upload of another Id is none of it.
				for _, id := range []string{"a", "c", "bb", "b0", "0b"} {
					checkRules(t, "an upload of "+id, watching(upsOf(upOf(id, len(file), file, true)), c), not...)
				}
			}
		}
	}
	for n := range 7 {
		checkRules(t, "WorldNew", impl.WorldNew(n, sixClients()[:4]))
	}
}

func TestBeginsByData(t *testing.T) {
	c := clientOf("b", text30, impl.ClSend, 0)
	for size := range 31 {
		for _, done := range []bool{false, true} {
			if done && size < 30 {
				continue
			}
			checkRules(t, "a beginning", watching(upsOf(upOf("b", 30, text30[:size], done)), c))
			// One byte that is other, at each place.
			for at := range size {
				checkRules(t, fmt.Sprint("another byte at ", at), watching(upsOf(upOf("b", 30, otherAt(text30[:size], at), done)), c), notBegins)
			}
		}
		// What stands in the file, but not at its beginning.
		if size > 0 {
			checkRules(t, "an end", watching(upsOf(upOf("b", 30, text30[1:][:size-1]+"?", false)), c), notBegins)
			checkRules(t, "backwards", watching(upsOf(upOf("b", 30, strings.Repeat(text30[29:], size), false)), c), notBegins)
		}
	}
	for _, more := range []string{"x", "\x00", text30, "7"} {
		checkRules(t, "more than the file", watching(upsOf(upOf("b", 30+len(more), text30+more, false)), c), notBegins)
		checkRules(t, "more than the file, done", watching(upsOf(upOf("b", 30+len(more), text30+more, true)), c), notBegins)
		checkRules(t, "more than Want", watching(upsOf(upOf("b", 30, text30+more, false)), c), notWorldOk, notBegins)
	}
}

func TestBeginsByWant(t *testing.T) {
	for _, size := range []int{0, 1, 2, 23, 24, 25, 48, 256, 399, 400} {
		file := longSector(size)
		c := clientOf("b", file, impl.ClAsk, size)
		for _, there := range []int{0, 1, size / 2, size - 1, size} {
			if there < 0 || there > size {
				continue
			}
			checkRules(t, "how long File is", watching(upsOf(upOf("b", size, file[:there], false)), c))
			for _, want := range []int{size - 1, size + 1, size + 256, 2*size + 1, 0, topWant} {
				if want < there || want == size {
					continue
				}
				checkRules(t, fmt.Sprint("a Want of ", want), watching(upsOf(upOf("b", want, file[:there], false)), c), notBegins)
			}
			for _, want := range []int{there - 1, -1, -size - 1, math.MinInt, math.MaxInt, size + 1<<32} {
				checkRules(t, fmt.Sprint("a Want of ", want), watching(upsOf(upOf("b", want, file[:there], false)), c), notWorldOk, notBegins)
			}
		}
		// It is the File that counts, not what is told of it.
		for off := range min(size, 5) {
			checkRules(t, "less told", watching(upsOf(upOf("b", off, file[:off], true)), clientOf("b", file, impl.ClSum, off)), notBegins)
		}
	}
}

func TestBeginsOfSeveral(t *testing.T) {
	files := []string{"hello", "", text30, "x", "hell", longSector(100)}
	for at, file := range files {
		var ups []impl.Up
		var cls []impl.Client
		for i, f := range files {
			id := string(rune('a' + i))
			ups, cls = append(ups, upOf(id, len(f), f[:len(f)/2], false)), append(cls, clientOf(id, f, impl.ClSend, 0))
		}
		checkRules(t, "all begin", watching(ups, cls...))
		// As the store orders them, or not.
		slices.Reverse(cls)
		checkRules(t, "all begin, the other way round", watching(ups, cls...))
		if file != "" {
			ups[at].Data = []byte("?")
			checkRules(t, fmt.Sprint("one at ", at, " does not"), watching(ups, cls...), notBegins)
		}
		ups[at] = upOf(ups[at].Id, len(file)+1, file, false)
		checkRules(t, fmt.Sprint("one at ", at, " has another Want"), watching(ups, cls...), notBegins)
		// Whose upload is gone is not asked.
		checkRules(t, fmt.Sprint("none at ", at), watching(slices.Delete(slices.Clone(ups), at, at+1), cls...))
		// Nor is one whose client is gone.
		cls = slices.Delete(cls, 5-at, 6-at)
		checkRules(t, fmt.Sprint("no client at ", at), watching(ups, cls...))
	}
	// Each begins its own file, not another's.
	swapped := upsOf(upOf("a", 2, "x", false), upOf("b", 2, "y", false))
	checkRules(t, "their own", watching(swapped, clientOf("b", "yx", impl.ClAsk, 0), clientOf("a", "xy", impl.ClAsk, 0)))
	checkRules(t, "each other's", watching(swapped, clientOf("a", "yx", impl.ClAsk, 0), clientOf("b", "xy", impl.ClAsk, 0)), notBegins)
}

func TestNotLostWithoutAnUpload(t *testing.T) {
	for _, file := range []string{"", "x", text30} {
		c := clientOf("b", file, impl.ClSend, 0)
		for _, w := range []impl.World{watching(nil, c), watching(upsOf(upOf("a", 30, text30, true), upOf("c", 30, text30, true)), c)} {
			checkRules(t, "nothing told", withBest(w, -1))
			for _, best := range []int{0, 1, 2, 30, topNumber, math.MaxInt} {
				checkRules(t, fmt.Sprint("told ", best), withBest(w, best), isLost)
			}
			// What is less than -1 is not -1.
			for _, best := range []int{-2, -3, -30, math.MinInt} {
				checkRules(t, fmt.Sprint("told ", best), withBest(w, best), notWorldOk, isLost)
			}
		}
	}
}

func TestNotLostByBest(t *testing.T) {
	c := clientOf("b", text30, impl.ClSum, 30)
	for size := range 31 {
		for _, done := range []bool{false, true} {
			if done && size < 30 {
				continue
			}
			w := watching(upsOf(upOf("b", 30, text30[:size], done)), c)
			for best := -1; best <= size; best++ {
				checkRules(t, fmt.Sprint("told ", best), withBest(w, best))
			}
			for _, best := range []int{size + 1, size + 2, 31, 256 + size, topNumber, math.MaxInt} {
				checkRules(t, fmt.Sprint("told ", best), withBest(w, best), isLost)
			}
			for _, best := range []int{-2, -size - 3, math.MinInt} {
				checkRules(t, fmt.Sprint("told ", best), withBest(w, best), notWorldOk)
			}
		}
	}
	// It is how much there is that counts, neither Want nor what the bytes are.
	other := watching(upsOf(upOf("b", 99, strings.Repeat("?", 40), false)), c)
	checkRules(t, "other bytes", withBest(other, 40), notBegins)
	checkRules(t, "other bytes", withBest(other, 41), notBegins, isLost)
}

func TestNotLostOfSeveral(t *testing.T) {
	ups := upsOf(upOf("a", 9, "123", false), upOf("b", 9, "12345", false), upOf("d", 9, "", false))
	cls := []impl.Client{clientOf("d", "123456789", 2, 0), clientOf("b", "123456789", 3, 0), clientOf("c", "123456789", 1, 0), clientOf("a", "123456789", 4, 9)}
	w, most := watching(ups, cls...), []int{0, 5, -1, 3}
	checkRules(t, "as much as there is", withBest(w, most...))
	for i := range most {
		best := slices.Clone(most)
		best[i]++
		checkRules(t, fmt.Sprint("1 more at ", i), withBest(w, best...), isLost)
		best[i] = -1
		checkRules(t, fmt.Sprint("nothing told at ", i), withBest(w, best...))
		// Where Best is too short, nothing was told to the others; where it is too long, what is over is no client's.
		checkRules(t, fmt.Sprint(i, " of them"), withBest(w, most[:i]...), notWorldOk)
		if i > 0 {
			best = slices.Clone(most[:i])
			best[i-1]++
			checkRules(t, fmt.Sprint(i, " of them, 1 more"), withBest(w, best...), notWorldOk, isLost)
		}
		checkRules(t, fmt.Sprint("one more beside", i), withBest(w, append(slices.Clone(most), 7*i)...), notWorldOk)
	}
	checkRules(t, "no Best", withBest(w), notWorldOk)
}

// A storedFile is how a file may stand in the store: whether it is whole and done, and what does not hold of it.
type storedFile struct {
	title string
	ups   []impl.Up
	whole bool
	not   []int
}

// storedFiles are each way in which the file of this Id may stand there.
func storedFiles(id string, file string) []storedFile {
	size := len(file)
	l := []storedFile{
		{"none", nil, false, nil},
		{"begun", upsOf(upOf(id, size, file[:size/2], false)), false, nil},
		{"all of it, not done", upsOf(upOf(id, size, file, false)), false, nil},
		{"done", upsOf(upOf(id, size, file, true)), true, nil},
		{"done with a byte more", upsOf(upOf(id, size+1, file+"x", true)), false, []int{notBegins}},
		{"done, another Want", upsOf(upOf(id, size+1, file, true)), true, []int{notWorldOk, notBegins}},
		{"of another", upsOf(upOf(id+"0", size, file, true)), false, nil},
	}
	if size == 0 {
		return l
	}
	other, less := otherAt(file, size/2), file[:size-1]
	return append(l,
		storedFile{"done with other bytes", upsOf(upOf(id, size, other, true)), false, []int{notBegins}},
		storedFile{"other bytes, not done", upsOf(upOf(id, size, other, false)), false, []int{notBegins}},
		storedFile{"done with a byte less", upsOf(upOf(id, size-1, less, true)), false, []int{notBegins}},
		storedFile{"done too early", upsOf(upOf(id, size, less, true)), false, []int{notWorldOk}},
	)
}

func TestEnds(t *testing.T) {
	for _, file := range []string{"", "x", "hello", text24, text30, longSector(400)} {
		for _, x := range storedFiles("b", file) {
			for step := -1; step <= 8; step++ {
				not := slices.Clone(x.not)
				if step < impl.ClMake || step > impl.ClFail {
					not = append(not, notWorldOk)
				}
				if step == impl.ClDone && !x.whole {
					not = append(not, notEnds)
				}
				if step == impl.ClFail {
					not = append(not, oneFails)
				}
				slices.Sort(not)
				for _, off := range []int{0, len(file)} {
					title := fmt.Sprint(x.title, " of ", len(file), " at step ", step)
					checkRules(t, title, watching(x.ups, clientOf("b", file, step, off)), slices.Compact(not)...)
				}
			}
		}
	}
}

func TestEndsOfSeveral(t *testing.T) {
	files := []string{"hello", "", text30, "x", "hullo", longSector(60)}
	var ups []impl.Up
	var cls []impl.Client
	for i, f := range files {
		id := string(rune('a' + i))
		ups, cls = append(ups, upOf(id, len(f), f, true)), append(cls, clientOf(id, f, impl.ClDone, len(f)))
	}
	slices.Reverse(cls)
	checkRules(t, "all done", watching(ups, cls...))
	for at := range files {
		changed := slices.Clone(ups)
		changed[at].Done = false
		checkRules(t, fmt.Sprint("one at ", at, " is not"), watching(changed, cls...), notEnds)
		open := slices.Clone(cls)
		open[5-at].Step = impl.ClSum
		checkRules(t, fmt.Sprint("one at ", at, " waits for it"), watching(changed, open...))
		checkRules(t, fmt.Sprint("one at ", at, " is not told yet"), watching(ups, open...))
		checkRules(t, fmt.Sprint("none at ", at), watching(slices.Delete(changed, at, at+1), cls...), notEnds)
	}
	// Each must be its own file, not another's.
	swapped := upsOf(upOf("a", 5, "hullo", true), upOf("e", 5, "hello", true))
	checkRules(t, "each other's", watching(swapped, cls[1], cls[5]), notBegins, notEnds)
}

func TestNoneFails(t *testing.T) {
	for count := 1; count <= 6; count++ {
		for at := range count {
			for _, off := range []int{0, 1} {
				cls := sixClients()[:count]
				for i := range cls {
					cls[i] = clientOf(cls[i].Id, "file", 1+i%4, i%3)
				}
				checkRules(t, "none fails", watching(nil, cls...))
				cls[at].Step, cls[at].Off = impl.ClFail, off
				checkRules(t, fmt.Sprint("one at ", at, " of ", count), watching(nil, cls...), oneFails)
				// Whether it has an upload is not asked, nor how far that is.
				for _, x := range storedFiles(cls[at].Id, "file") {
					checkRules(t, x.title, watching(x.ups, cls...), append(slices.Clone(x.not), oneFails)...)
				}
			}
		}
		all := sixClients()[:count]
		for i := range all {
			all[i].Step = impl.ClFail
		}
		checkRules(t, "all fail", watching(nil, all...), oneFails)
	}
	// What is no step at all is no failing.
	for _, step := range slices.Concat(greatNumbers, []int{-6, 0, 7, 6 + 256, 6 + 1<<32, 106}) {
		checkRules(t, fmt.Sprint("step ", step), watching(nil, clientOf("a", "", step, 0)), notWorldOk)
	}
}

// breakers let what must hold not hold, each number by itself, in the world that safeOnes is.
func breakers() map[int][]func(*impl.World) {
	return map[int][]func(*impl.World){
		notWorldOk: {
			func(w *impl.World) { w.Busy = w.Busy[:5] },
			func(w *impl.World) { w.Busy = nil },
			func(w *impl.World) { w.Sv.St.Epoch = -1 },
			func(w *impl.World) { w.Tells = manyTells(61, 6) },
			func(w *impl.World) { w.Asks = []impl.Want{wantOf(6, askReq("a"), "")} },
			func(w *impl.World) { w.Best = append(w.Best, 5) },
		},
		notBegins: {
			func(w *impl.World) { w.Cls[0].File = []byte("hullo!") },
			func(w *impl.World) { w.Cls[0].File = []byte("hello") },
			func(w *impl.World) { w.Cls[0].File = []byte("hello!!") },
			func(w *impl.World) { w.Cls[0].File, w.Cls[0].Off = nil, 0 },
		},
		isLost: {
			func(w *impl.World) { w.Best[1] = 0 },
			func(w *impl.World) { w.Best[1] = 400 },
			func(w *impl.World) { w.Best[0] = 6 },
		},
		notEnds: {
			func(w *impl.World) { w.Cls[2].Step = impl.ClDone },
			func(w *impl.World) { w.Cls[3].Step = impl.ClDone },
		},
		oneFails: {
			func(w *impl.World) { w.Cls[4].Step = impl.ClFail },
			func(w *impl.World) { w.Cls[5].Step = impl.ClFail },
			func(w *impl.World) { w.Cls[4].Step, w.Cls[5].Step = impl.ClFail, impl.ClFail },
		},
	}
}

// safeOnes has six clients: one whose file has begun, one without an upload, two of nothing, one that is done, one that waits to be.
func safeOnes() impl.World {
	ups := upsOf(upOf("a", 6, "hello", false), upOf("d", 0, "", false), upOf("e", 30, text30, true), upOf("f", 24, text24, true))
	w := watching(ups, clientOf("a", "hello!", impl.ClSend, 5), clientOf("b", "file", impl.ClMake, 0), clientOf("c", "", impl.ClAsk, 0),
		clientOf("d", "", impl.ClSum, 0), clientOf("e", text30, impl.ClDone, 30), clientOf("f", text24, impl.ClSum, 24))
	return withBest(w, 5, -1, -1, 0, 30, 24)
}

// Each of the five alone, each pair of them, and all that there are: the first one is told.
func TestSafeTellsTheFirst(t *testing.T) {
	checkRules(t, "all hold", safeOnes())
	for set := 1; set < 1<<5; set++ {
		for way := range 6 {
			w, not := safeOnes(), []int(nil)
			for number := 1; number <= 5; number++ {
				if set>>(number-1)&1 == 1 {
					ways := breakers()[number]
					ways[way%len(ways)](&w)
					not = append(not, number)
				}
			}
			checkRules(t, fmt.Sprint(not, " do not hold, way ", way), w, not...)
		}
	}
}

// Lists that are shorter than there are clients, and longer: each rule asks of what is there.
func TestSafeOfShortLists(t *testing.T) {
	for count := range 7 {
		w := safeOnes()
		w.Busy = w.Busy[:count]
		if count < 6 {
			checkRules(t, fmt.Sprint(count, " busy"), w, notWorldOk)
		}
		w.Best = w.Best[:count]
		if count < 6 {
			checkRules(t, fmt.Sprint(count, " busy and best"), w, notWorldOk)
		}
		w = safeOnes()
		w.Cls = w.Cls[:count]
		if count < 6 {
			checkRules(t, fmt.Sprint(count, " clients"), w, notWorldOk)
		}
		for number, ways := range breakers() {
			for _, breaks := range ways {
				w := safeOnes()
				breaks(&w)
				w.Busy, w.Best, w.Asks = w.Busy[:min(count, len(w.Busy))], w.Best[:count], nil
				checkByTheChapter(t, fmt.Sprint(number, " broken, ", count, " best"), w)
				w.Cls = w.Cls[:count/2]
				checkByTheChapter(t, fmt.Sprint(number, " broken, ", count, " best, fewer clients"), w)
			}
		}
	}
	// Whoever is done or fails is asked, however short the lists are.
	for _, c := range []impl.Client{clientOf("c", "", impl.ClDone, 0), clientOf("c", "", impl.ClFail, 0)} {
		w := safeOnes()
		w.Cls[2], w.Busy, w.Best = c, nil, nil
		checkRules(t, clientTitle(c), w, notWorldOk, c.Step-1)
	}
}

// Worlds that are not WorldOk are asked as well.
func TestSafeOfWrongWorlds(t *testing.T) {
	counts := map[int]int{}
	for _, x := range changedWorlds() {
		counts[checkByTheChapter(t, x.title, x.world)]++
		// Without the one that fails among them, the rules differ.
		w := cloneWorld(x.world)
		for i := range w.Cls {
			if w.Cls[i].Step >= impl.ClDone {
				w.Cls[i].Step = impl.ClAsk
			}
		}
		counts[checkByTheChapter(t, x.title+", none at an end", w)]++
		w.Best = slices.Repeat([]int{-1}, len(w.Best))
		counts[checkByTheChapter(t, x.title+", none told", w)]++
	}
	for _, s := range wrongStores() {
		w := atRest(serverOf(s), clientOf("a", "", impl.ClMake, 0), clientOf("b", text30, impl.ClMake, 0), clientOf("zz", "12345", impl.ClSend, 0), clientOf("u3", "", impl.ClDone, 0))
		w.Best[1] = 24
		checkByTheChapter(t, "a wrong store", w)
	}
	if counts[0] < 20 || counts[1] < 700 || counts[3] < 20 {
		t.Errorf("Safe was: %v", counts)
	}
	// Two clients of one Id are each asked of one upload, and of two uploads of one Id the first counts.
	two := watching(upsOf(upOf("a", 2, "x", false)), clientOf("a", "xy", impl.ClAsk, 0), clientOf("a", "xz", impl.ClAsk, 0))
	checkRules(t, "one Id", withBest(two, 1, 1), notWorldOk)
	checkRules(t, "one Id, more told to the second", withBest(two, 1, 2), notWorldOk, isLost)
	two.Cls[1].File = []byte("yx")
	checkRules(t, "one Id, another file", two, notWorldOk, notBegins)
	twice := watching(upsOf(upOf("a", 2, "x", false), upOf("a", 2, "xy", true)), clientOf("a", "xy", impl.ClDone, 0))
	checkRules(t, "two uploads", twice, notWorldOk, notEnds)
	slices.Reverse(twice.Sv.St.Ups)
	checkRules(t, "two uploads, the whole one ahead", withBest(twice, 2), notWorldOk)
	// The empty Id is as another.
	none := watching(upsOf(upOf("", 1, "x", true)), impl.Client{File: []byte("x"), Step: impl.ClDone})
	checkRules(t, "no Id", none, notWorldOk)
}

// watched draws a world in which uploads are near what the files are.
func (d *drawer) watched() impl.World {
	var ups []impl.Up
	var cls []impl.Client
	var best []int
	for i := range d.draw(7) {
		id, file := string(rune('a'+i)), string(d.bytes(drawn(d, 0, 1, 5, 24, 30, d.draw(60))))
		size := len(file)
		cls, best = append(cls, clientOf(id, file, drawn(d, 1, 2, 3, 4, 5, 5, 5, 6), d.draw(size+1))), append(best, -1)
		if d.draw(4) == 0 {
			continue
		}
		u := upOf(id, size, file[:drawn(d, size, size, d.draw(size+1))], false)
		switch d.draw(12) {
		case 0:
			u.Want++
		case 1:
			u.Want, u.Data = size+1, append(u.Data, 'x')
		case 2:
			if len(u.Data) > 0 {
				u.Data[d.draw(len(u.Data))] ^= 4
			}
		}
		u.Done = len(u.Data) == u.Want && d.draw(4) != 0
		ups, best[i] = append(ups, u), drawn(d, -1, 0, d.draw(len(u.Data)+1), len(u.Data), len(u.Data)+d.draw(2))
		if cls[i].Step == impl.ClDone && d.draw(3) != 0 {
			cls[i].Step = drawn(d, 1, 4)
		}
	}
	return withBest(watching(ups, cls...), best...)
}

func TestSafeByTheChapter(t *testing.T) {
	d := drawer(1919)
	counts, holds := map[int]int{}, map[string]int{}
	for range 4000 {
		w := d.watched()
		if d.draw(10) == 0 {
			w.Busy = append(w.Busy, true)
		}
		counts[checkByTheChapter(t, "drawn", w)]++
		for _, r := range safeRules() {
			holds[fmt.Sprint(r.name, " ", r.ask(w))]++
		}
		if t.Failed() {
			return
		}
	}
	for number := range 6 {
		if counts[number] < 100 {
			t.Errorf("Safe was %d %d times: %v", number, counts[number], counts)
		}
	}
	if len(holds) != 8 {
		t.Errorf("what holds: %v", holds)
	}
}

// beginning draws a world of WorldNew, of clients at no end, mostly new ones. None is at ClSend with nothing left: what it asks for then would be refused.
func (d *drawer) beginning() impl.World {
	var cls []impl.Client
	for i := range drawn(d, 1, 2, 2, 3, 6, d.draw(7)) {
		size := drawn(d, 0, 1, 24, 25, 48, d.draw(60), d.draw(120))
		c := impl.ClientNew(fmt.Sprint("u", i), d.bytes(size))
		if d.draw(4) == 0 {
			c.Step, c.Off = drawn(d, impl.ClMake, impl.ClAsk, impl.ClSum), d.draw(size+1)
		}
		if size > 0 && d.draw(9) == 0 {
			c.Step, c.Off = impl.ClSend, d.draw(size)
		}
		cls = append(cls, c)
	}
	return impl.WorldNew(drawn(d, 0, 1, 3, 12, 40, 40, 60, 200), cls)
}

// Promise 19: of WorldNew, by whatever events, Safe is 0, behind each one of them, and behind one play of all.
func TestSafeByWhateverEvents(t *testing.T) {
	d := drawer(191919)
	done, steps, told, gone := map[int]int{}, map[int]int{}, 0, 0
	for round := range 250 {
		first := d.beginning()
		checkRules(t, "WorldNew", first)
		w, l := first, []impl.Event(nil)
		for range drawn(&d, 30, 120, 200) {
			e := d.event(w)
			next, ok := impl.Do(w, e)
			if ok {
				done[e.Kind]++
			}
			if len(next.Sv.St.Ups) < len(w.Sv.St.Ups) {
				gone++
			}
			w, l = next, append(l, e)
			checkRules(t, fmt.Sprint("round ", round, " behind ", len(l), ", ", eventTitle(e)), w)
			if t.Failed() {
				return
			}
		}
		checkRules(t, fmt.Sprint("round ", round, " as one play"), impl.Play(first, l))
		for i, c := range w.Cls {
			steps[c.Step]++
			if w.Best[i] > 0 {
				told++
			}
		}
	}
	for kind := impl.EvSend; kind <= impl.EvCrash; kind++ {
		if done[kind] < 100 {
			t.Errorf("the event %d was done %d times: %v", kind, done[kind], done)
		}
	}
	if steps[impl.ClDone] < 50 || steps[impl.ClFail] > 0 || told < 100 || gone < 10 {
		t.Errorf("steps %v, %d were told more than 0, %d uploads were gone", steps, told, gone)
	}
}

// Each of the ends of a disk that may be: behind a crash that keeps these sectors, and those alone.
func TestSafeBehindEachCrash(t *testing.T) {
	first := impl.WorldNew(9, []impl.Client{impl.ClientNew("a", []byte("hello")), impl.ClientNew("b", []byte(text30))})
	l := []impl.Event{
		sending(0), sending(1), serving(1), serving(0), syncing(), tellingAt(1), tellingAt(0), sending(1), serving(0), sending(0), serving(0), cutting(0),
		sending(0), serving(0), syncing(), tellingAt(0), tellingAt(0), sending(0), sending(1), serving(0), serving(0), syncing(), tellingAt(0), tellingAt(0), sending(1), serving(0),
	}
	for count := range len(l) + 1 {
		w := impl.Play(first, l[:count])
		for set := range 1 << w.Sv.St.Next {
			kept := make([]bool, 9)
			for i := range kept {
				kept[i] = set>>i&1 == 1
			}
			crashed, ok := impl.Do(w, crashing(kept...))
			if !ok {
				t.Fatalf("behind %d events, %s: no crash", count, keptTitle(kept))
			}
			checkRules(t, fmt.Sprint("behind ", count, " events, ", keptTitle(kept)), crashed)
			checkRules(t, "going on", impl.Play(crashed, l[:20]))
			if t.Failed() {
				return
			}
		}
	}
	if w := impl.Play(first, l); len(w.Sv.St.Ups) != 2 || !w.Sv.St.Ups[0].Done || w.Cls[0].Step != impl.ClDone || w.Best[1] != 30 {
		t.Errorf("behind all events: (%s)", worldTitle(w))
	}
}

// safeAnswers are all that the five functions answer.
func safeAnswers(w impl.World) string {
	return fmt.Sprint(impl.Begins(w), impl.NotLost(w), impl.Ends(w), impl.NoneFails(w), impl.Safe(w))
}

// watchedWorlds are worlds in which each rule holds or does not.
func watchedWorlds() []impl.World {
	l := append(fewChanged(17), safeOnes(), oneMemory(crowded()), oneMemory(safeOnes()))
	for _, ways := range breakers() {
		for _, breaks := range ways {
			w := safeOnes()
			breaks(&w)
			l = append(l, w)
		}
	}
	return l
}

// Nothing is written into a world nor into the spare room behind it, which is not read either.
func TestSafeLeavesTheWorldAlone(t *testing.T) {
	for _, w := range watchedWorlds() {
		want := safeAnswers(cloneWorld(w))
		for _, spare := range []int{0, 1, 30, 70} {
			x, kept := roomyWorldOf(w, spare), roomyWorldOf(w, spare)
			if got := safeAnswers(x.world); got != want || !x.sameAs(kept) {
				t.Errorf("(%s) with %d spare: %s, not %s", worldTitle(w), spare, got, want)
			}
		}
		kept := cloneWorld(w)
		if got := safeAnswers(w); got != want || !sameWorld(w, kept) {
			t.Errorf("(%s): %s, not %s", worldTitle(w), got, want)
		}
	}
}

// Spare room behind short lists holds what would change the answers, were it read.
func TestSafeReadsNoSpareRoom(t *testing.T) {
	w := safeOnes()
	cls := append(slices.Clone(w.Cls), clientOf("g", "", impl.ClFail, 0), clientOf("h", "", impl.ClDone, 0))
	best := append(slices.Clone(w.Best), 400, 400)
	file := []byte("hello!?")
	ups := append(slices.Clone(w.Sv.St.Ups), upOf("b", 9, "x", false))
	data := []byte("hello?")
	w.Cls, w.Best, w.Sv.St.Ups = cls[:6], best[:6], ups[:4]
	w.Cls[0].File, w.Sv.St.Ups[0].Data = file[:6], data[:5]
	checkRules(t, "all hold", w)
	w.Best = best[:2:6]
	checkRules(t, "two are told", w, notWorldOk)
}

// No call keeps anything from one to the next.
func TestSafeAnswersAlikeAgain(t *testing.T) {
	worlds := watchedWorlds()
	var want []string
	for _, w := range worlds {
		want = append(want, safeAnswers(w))
	}
	for i := len(worlds) - 1; i >= 0; i-- {
		if got := safeAnswers(worlds[i]); got != want[i] {
			t.Errorf("(%s): %s, and ahead of it %s", worldTitle(worlds[i]), got, want[i])
		}
	}
	// What was asked of a world is not held on to: changed, it is asked anew.
	w := safeOnes()
	checkRules(t, "all hold", w)
	w.Cls[0].File[0] = 'j'
	checkRules(t, "another byte", w, notBegins)
	w.Sv.St.Ups[0].Data[0] = 'j'
	checkRules(t, "the same byte in the store alone", w, notWorldOk)
}
