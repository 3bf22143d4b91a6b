package tests

import (
	"fmt"
	"math"
	"slices"
	"strings"
	"testing"

	"loop.example/g00199/impl"
)

const mostHeld = 200

func makeReq(id string, n int) impl.Req { return impl.Req{Op: impl.OpMake, Id: id, N: n} }
func askReq(id string) impl.Req         { return impl.Req{Op: impl.OpAsk, Id: id} }
func sendReq(id string, n int) impl.Req { return impl.Req{Op: impl.OpSend, Id: id, N: n} }
func doneReq(id string, n int) impl.Req { return impl.Req{Op: impl.OpDone, Id: id, N: n} }
func readReq(id string) impl.Req        { return impl.Req{Op: impl.OpRead, Id: id} }
func dropReq(id string) impl.Req        { return impl.Req{Op: impl.OpDrop, Id: id} }

// untold is an answer that does not tell how much there is.
func untold(status int) impl.Resp { return impl.Resp{Status: status, Off: -1} }

func telling(status int, off int) impl.Resp { return impl.Resp{Status: status, Off: off} }

func sameServer(a impl.Server, b impl.Server) bool {
	return sameStore(a.St, b.St) && slices.Equal(a.Held, b.Held)
}

func serverTitle(s impl.Server) string {
	return fmt.Sprintf("%s; %d held %.80s", storeTitle(s.St), len(s.Held), fmt.Sprint(s.Held))
}

// manyHeld are so many answers, no two alike.
func manyHeld(count int) []impl.Held {
	var l []impl.Held
	for i := range count {
		l = append(l, impl.Held{Who: 7*i - 300, R: impl.Resp{Status: 100 + i%500, Off: i - 1}})
	}
	return l
}

func serverOf(s impl.Store, held ...impl.Held) impl.Server {
	return impl.Server{St: s, Held: held}
}

func docServerOk(s impl.Server) bool {
	for _, h := range s.Held {
		if h.R.Status < 100 || h.R.Status > 599 || h.R.Off < -1 || h.R.Off > topNumber {
			return false
		}
	}
	return docStoreOk(s.St) && len(s.Held) <= 200
}

func checkServerOk(t *testing.T, s impl.Server, want bool) {
	t.Helper()
	if got := impl.ServerOk(s); got != want {
		t.Errorf("ServerOk of (%s) is %v", serverTitle(s), got)
	}
	if got := docServerOk(s); got != want {
		t.Errorf("docServerOk of (%s) is %v", serverTitle(s), got)
	}
}

// docServed is, by the chapter's words, the store behind a request, and the answer.
func docServed(s impl.Store, r impl.Req, data string) (impl.Store, impl.Resp) {
	at := slices.IndexFunc(s.Ups, func(u impl.Up) bool { return u.Id == r.Id })
	u := impl.Up{}
	if at >= 0 {
		u = s.Ups[at]
	}
	var o storeOp
	switch r.Op {
	case 1:
		o = making(r.Id, r.N)
	case 3:
		o = putting(r.Id, r.N, data)
	case 4:
		o = finishing(r.Id, r.N)
	case 6:
		o = dropping(r.Id)
	default:
		if at < 0 {
			return s, impl.Resp{Status: 404, Off: -1}
		}
		if r.Op == 5 && !u.Done {
			return s, impl.Resp{Status: 409, Off: len(u.Data)}
		}
		return s, impl.Resp{Status: 200, Off: len(u.Data)}
	}
	code, l := o.answer(s)
	switch code {
	case 1:
		return s, impl.Resp{Status: 400, Off: -1}
	case 2:
		return s, impl.Resp{Status: 404, Off: -1}
	case 3, 4:
		return s, impl.Resp{Status: 409, Off: len(u.Data)}
	case 5:
		return s, impl.Resp{Status: 507, Off: -1}
	case 6:
		return s, impl.Resp{Status: 422, Off: -1}
	}
	resp := map[int]impl.Resp{1: {Status: 201}, 3: {Status: 204, Off: len(u.Data) + len(data)}, 4: {Status: 200, Off: -1}, 6: {Status: 204, Off: -1}}[r.Op]
	return behind(s, l...), resp
}

// checkServe asks for this answer, behind those that wait, and for the store that the chapter's words give.
func checkServe(t *testing.T, s impl.Server, who int, r impl.Req, data string, want impl.Resp) impl.Server {
	t.Helper()
	title := fmt.Sprintf("Serve %d %+v, %d bytes, of (%s)", who, r, len(data), serverTitle(s))
	st, resp := docServed(s.St, r, data)
	if resp != want {
		t.Errorf("%s: the chapter's words give %+v, not %+v", title, resp, want)
	}
	next := serverOf(st, append(slices.Clone(s.Held), impl.Held{Who: who, R: want})...)
	got, ok := impl.Serve(s, who, r, []byte(data))
	if !ok || !sameServer(got, next) {
		t.Errorf("%s: (%s), %v, not (%s)", title, serverTitle(got), ok, serverTitle(next))
	}
	if n := len(got.Held); n > 0 && got.Held[n-1] != (impl.Held{Who: who, R: want}) {
		t.Errorf("%s: the answer is %+v, not %+v", title, got.Held[n-1], want)
	}
	if !impl.ServerOk(got) {
		t.Errorf("%s: (%s) is not ServerOk", title, serverTitle(got))
	}
	if (r.Op == impl.OpAsk || r.Op == impl.OpRead) && !sameStore(got.St, s.St) {
		t.Errorf("%s: the store is changed: (%s)", title, serverTitle(got))
	}
	return got
}

// checkNoServe asks for the server as it was, and false.
func checkNoServe(t *testing.T, s impl.Server, who int, r impl.Req, data string) {
	t.Helper()
	if got, ok := impl.Serve(s, who, r, []byte(data)); ok || !sameServer(got, s) {
		t.Errorf("Serve %d %+v, %d bytes, of (%s): (%s), %v, not the server and false", who, r, len(data), serverTitle(s), serverTitle(got), ok)
	}
}

// checkSync asks for all that waited, and for a store that is sure.
func checkSync(t *testing.T, s impl.Server) impl.Server {
	t.Helper()
	want := serverOf(s.St)
	want.St.Disk = impl.Disk{Now: s.St.Disk.Now, Sure: s.St.Disk.Now}
	got, l := impl.SyncAll(s)
	if !sameServer(got, want) || !slices.Equal(l, s.Held) || !impl.ServerOk(got) {
		t.Errorf("SyncAll of (%s): (%s), %d answers %.80s", serverTitle(s), serverTitle(got), len(l), fmt.Sprint(l))
	}
	return got
}

// docFallen is each sector, as it is read where it is kept, else as it was sure.
func docFallen(d impl.Disk, kept []bool) impl.Disk {
	var l []string
	for i := range d.Now {
		text := d.Sure[i]
		if i < len(kept) && kept[i] {
			text = d.Now[i]
		}
		l = append(l, text)
	}
	return impl.Disk{Now: l, Sure: l}
}

// docCrashed is, by the chapter's words, the server of what a crash leaves, and whether there is one.
func docCrashed(s impl.Server, kept []bool) (impl.Server, bool) {
	if !docServerOk(s) {
		return s, false
	}
	d := docFallen(s.St.Disk, kept)
	l := impl.ScanRecs(d)
	ups, ok := docFold(l)
	if !ok || impl.TopEpoch(d) >= 10000 {
		return s, false
	}
	return serverOf(impl.Store{Disk: d, Epoch: impl.TopEpoch(d) + 1, Next: len(l), Ups: ups}), true
}

func keptTitle(kept []bool) string {
	s := ""
	for _, k := range kept {
		s += map[bool]string{true: "y", false: "n"}[k]
	}
	return fmt.Sprintf("%d kept %.60s", len(kept), s)
}

func checkCrash(t *testing.T, s impl.Server, kept []bool, wantOk bool) impl.Server {
	t.Helper()
	want, ok := docCrashed(s, kept)
	if ok != wantOk {
		t.Errorf("CrashServer, %s, of (%s): the chapter's words give %v", keptTitle(kept), serverTitle(s), ok)
	}
	got, ok := impl.CrashServer(s, kept)
	if ok != wantOk || !sameServer(got, want) || ok && (!impl.ServerOk(got) || len(got.Held) != 0) {
		t.Errorf("CrashServer, %s, of (%s): (%s), %v, not (%s), %v", keptTitle(kept), serverTitle(s), serverTitle(got), ok, serverTitle(want), wantOk)
	}
	return got
}

func allKept(count int) []bool {
	return slices.Repeat([]bool{true}, count)
}

func TestServerNew(t *testing.T) {
	for _, n := range []int{0, 1, 2, 100, 199, 200} {
		s := impl.ServerNew(n)
		if !sameServer(s, serverOf(impl.Store{Disk: impl.Disk{Now: make([]string, n), Sure: make([]string, n)}})) {
			t.Errorf("ServerNew of %d is (%s)", n, serverTitle(s))
		}
		checkServerOk(t, s, true)
	}
	for _, n := range slices.Concat(greatNumbers, []int{-1, 201, -200, -2, 202, 256, 400, 1000}) {
		s := impl.ServerNew(n)
		if !sameServer(s, impl.Server{}) {
			t.Errorf("ServerNew of %d is (%s)", n, serverTitle(s))
		}
		checkServerOk(t, s, true)
	}
	// On a disk of no sector nothing is made, and all that asks is answered.
	s := checkServe(t, impl.ServerNew(0), 0, makeReq("a", 0), "", untold(507))
	checkServe(t, s, 0, askReq("a"), "", untold(404))
	checkServe(t, impl.ServerNew(-1), 0, makeReq("a", 0), "", untold(507))
	checkServe(t, impl.ServerNew(201), 0, makeReq("a", 0), "", untold(507))
	s = checkServe(t, impl.ServerNew(1), 0, makeReq("a", 1), "", telling(201, 0))
	checkServe(t, s, 0, sendReq("a", 0), "x", untold(507))
}

// goodServers are ServerOk: each store that is StoreOk, with as many answers as may wait.
func goodServers() []impl.Server {
	var l []impl.Server
	counts := []int{0, 1, 3, 199, 200, 2, 50}
	for i, s := range goodStores() {
		l = append(l, serverOf(s, manyHeld(counts[i%len(counts)])...))
		if i%5 == 0 {
			l = append(l, serverOf(s), serverOf(s, manyHeld(200)...))
		}
	}
	return l
}

// wrongResps are not RespOk, each by one thing.
var wrongResps = []impl.Resp{
	{}, {Status: 0, Off: -1}, {Status: 99, Off: 3}, {Status: 600, Off: 3}, {Status: -200, Off: 3}, {Status: 1<<32 + 200, Off: 3}, {Status: 1<<16 + 200, Off: -1}, {Status: math.MinInt}, {Status: math.MaxInt},
	{Status: 200, Off: -2}, {Status: 200, Off: topNumber + 1}, {Status: 200, Off: math.MinInt}, {Status: 200, Off: math.MaxInt}, {Status: 200, Off: 1 << 32}, {Status: 200, Off: 1<<32 + 5}, {Status: 404, Off: -1 << 32},
}

// wrongHeld are servers in which one answer that waits is wrong, or too many wait.
func wrongHeld() []impl.Server {
	var l []impl.Server
	st := storeBy(9, 1, makeRec("b", 30), dataRec("b", 0, text24))
	for _, r := range wrongResps {
		for _, count := range []int{1, 2, 3, 50, 200} {
			for _, at := range []int{0, count / 2, count - 1} {
				held := manyHeld(count)
				held[at].R = r
				l = append(l, serverOf(st, held...))
			}
		}
	}
	for _, count := range []int{201, 202, 256, 400, 456, 1000} {
		l = append(l, serverOf(st, manyHeld(count)...), serverOf(impl.Store{}, manyHeld(count)...))
	}
	return l
}

func wrongServers() []impl.Server {
	l := wrongHeld()
	for i, s := range wrongStores() {
		l = append(l, serverOf(s, manyHeld(i%4)...))
	}
	return l
}

func someWrongServers() []impl.Server {
	var l []impl.Server
	for i, s := range wrongServers() {
		if i%29 == 0 {
			l = append(l, s)
		}
	}
	return l
}

func TestServerOk(t *testing.T) {
	checkServerOk(t, impl.Server{}, true)
	for _, s := range goodServers() {
		checkServerOk(t, s, true)
		s.Held = append([]impl.Held{}, s.Held...)
		checkServerOk(t, s, true)
	}
	for _, s := range wrongServers() {
		checkServerOk(t, s, false)
	}
}

func TestServerOkByWhatWaits(t *testing.T) {
	st := storeBy(5, 0, makeRec("a", 3))
	for count := range 260 {
		checkServerOk(t, serverOf(st, manyHeld(count)...), count <= mostHeld)
		checkServerOk(t, serverOf(st, slices.Repeat(manyHeld(1), count)...), count <= mostHeld)
	}
	for _, count := range []int{1, 3, 199, 200} {
		for _, at := range []int{0, count / 2, count - 1} {
			for _, who := range slices.Concat(greatNumbers, []int{-1, -2, -200, 0, 1, 5, 6, 200, 201}) {
				held := manyHeld(count)
				held[at].Who = who
				checkServerOk(t, serverOf(st, held...), true)
			}
			for _, status := range []int{99, 100, 101, 200, 598, 599, 600} {
				for _, off := range []int{-2, -1, 0, 1, topNumber - 1, topNumber, topNumber + 1} {
					held := manyHeld(count)
					held[at].R = impl.Resp{Status: status, Off: off}
					checkServerOk(t, serverOf(st, held...), status >= 100 && status <= 599 && off >= -1 && off <= topNumber)
				}
			}
		}
	}
	// To one who waits for many answers each of them counts; two that are alike are no harm.
	checkServerOk(t, serverOf(st, slices.Repeat([]impl.Held{{Who: 3, R: untold(404)}}, 200)...), true)
}

func TestServerOkOfEachStore(t *testing.T) {
	for _, s := range goodStores() {
		for _, held := range [][]impl.Held{nil, manyHeld(1), manyHeld(200)} {
			checkServerOk(t, serverOf(s, held...), true)
		}
		checkServerOk(t, serverOf(s, manyHeld(201)...), false)
		checkServerOk(t, serverOf(s, impl.Held{}), false)
	}
	for _, s := range wrongStores() {
		checkServerOk(t, serverOf(s), false)
		checkServerOk(t, serverOf(s, manyHeld(2)...), false)
	}
}

// What each function gives is ServerOk, and stays so whatever comes behind it.
func TestServerOkOfWhatIsGiven(t *testing.T) {
	for _, s := range goodServers() {
		for _, r := range []impl.Req{makeReq("new", 5), askReq("b"), sendReq("b", 24), doneReq("b", 7), readReq("b"), dropReq("b"), dropReq("a")} {
			next, _ := impl.Serve(s, -4, r, []byte("xy"))
			checkServerOk(t, next, true)
		}
		next, _ := impl.SyncAll(s)
		checkServerOk(t, next, true)
		next, _ = impl.CrashServer(s, nil)
		checkServerOk(t, next, true)
		next, _ = impl.CrashServer(s, allKept(200))
		checkServerOk(t, next, true)
	}
}

// sumA is that of the upload a when it has all of its 30 bytes.
var sumA = sumOf(text24 + "123456")

// statesOfA are: not there, empty, with some bytes, with all of them, and done; beside another upload with 2 bytes.
func statesOfA(sectors int) []impl.Store {
	l := recs(makeRec("b", 5), dataRec("b", 0, "xy"), makeRec("a", 30), dataRec("a", 0, text24), dataRec("a", 24, "123456"), doneRec("a"))
	var out []impl.Store
	for count := 2; count <= len(l); count++ {
		free := sectors
		if sectors < 0 {
			free = count
		}
		out = append(out, storeBy(free, 3, l[:count]...))
	}
	return out
}

// answersOfA are, for each of statesOfA, what is answered: a status alone does not tell how much there is.
type answersOfA struct {
	r     impl.Req
	data  string
	resps [5]impl.Resp
}

func checkAnswersOfA(t *testing.T, states []impl.Store, l []answersOfA) {
	t.Helper()
	for _, x := range l {
		for i, st := range states {
			for _, held := range [][]impl.Held{nil, manyHeld(1), manyHeld(199)} {
				checkServe(t, serverOf(st, held...), 5, x.r, x.data, x.resps[i])
			}
		}
	}
}

// Each Op of an upload that is not there, that is empty, that has some bytes, all of them, and that is done.
func TestServeOfEachOp(t *testing.T) {
	none, there := untold(404), [5]impl.Resp{telling(201, 0), telling(409, 0), telling(409, 24), telling(409, 30), telling(409, 30)}
	sent := func(empty impl.Resp, some impl.Resp) [5]impl.Resp {
		return [5]impl.Resp{none, empty, some, telling(409, 30), telling(409, 30)}
	}
	summed := func(all impl.Resp) [5]impl.Resp {
		return [5]impl.Resp{none, telling(409, 0), telling(409, 24), all, all}
	}
	checkAnswersOfA(t, statesOfA(40), []answersOfA{
		{makeReq("a", 30), "", there},
		{makeReq("a", 0), "", there},
		{makeReq("a", topWant), "", there},
		{askReq("a"), "", [5]impl.Resp{none, telling(200, 0), telling(200, 24), telling(200, 30), telling(200, 30)}},
		{sendReq("a", 0), "x", sent(telling(204, 1), telling(409, 24))},
		{sendReq("a", 0), text24, sent(telling(204, 24), telling(409, 24))},
		{sendReq("a", 0), text24 + "123456", sent(telling(204, 30), telling(409, 24))},
		{sendReq("a", 0), text24 + "1234567", sent(telling(409, 0), telling(409, 24))},
		{sendReq("a", 1), "x", sent(telling(409, 0), telling(409, 24))},
		{sendReq("a", 2), "x", sent(telling(409, 0), telling(409, 24))},
		{sendReq("a", 23), "x", sent(telling(409, 0), telling(409, 24))},
		{sendReq("a", 24), "x", sent(telling(409, 0), telling(204, 25))},
		{sendReq("a", 24), "123456", sent(telling(409, 0), telling(204, 30))},
		{sendReq("a", 24), "1234567", sent(telling(409, 0), telling(409, 24))},
		{sendReq("a", 25), "x", sent(telling(409, 0), telling(409, 24))},
		{sendReq("a", 30), "x", sent(telling(409, 0), telling(409, 24))},
		{sendReq("a", topNumber), "x", sent(telling(409, 0), telling(409, 24))},
		{doneReq("a", sumA), "", summed(untold(200))},
		{doneReq("a", sumA^1), "", summed(untold(422))},
		{doneReq("a", sumOf(text24)), "", summed(untold(422))},
		{doneReq("a", 0), "", summed(untold(422))},
		{doneReq("a", topWord), "", summed(untold(422))},
		{readReq("a"), "", [5]impl.Resp{none, telling(409, 0), telling(409, 24), telling(409, 30), telling(200, 30)}},
		{dropReq("a"), "", [5]impl.Resp{none, untold(204), untold(204), untold(204), untold(204)}},
	})
}

// The same with no sector left: what needs none is answered as before.
func TestServeOfEachOpWithNoSectorLeft(t *testing.T) {
	none, full := untold(404), untold(507)
	placed := [5]impl.Resp{none, telling(409, 0), telling(409, 24), telling(409, 30), telling(409, 30)}
	with := func(resps [5]impl.Resp, at int, r impl.Resp) [5]impl.Resp {
		resps[at] = r
		return resps
	}
	checkAnswersOfA(t, statesOfA(-1), []answersOfA{
		{makeReq("a", 30), "", with(placed, 0, full)},
		{makeReq("a", topWant+1), "", [5]impl.Resp{untold(400), untold(400), untold(400), untold(400), untold(400)}},
		{askReq("a"), "", [5]impl.Resp{none, telling(200, 0), telling(200, 24), telling(200, 30), telling(200, 30)}},
		{sendReq("a", 0), "x", with(placed, 1, full)},
		{sendReq("a", 24), "x", with(placed, 2, full)},
		{sendReq("a", 24), "1234567", placed},
		{sendReq("a", 24), "", [5]impl.Resp{untold(400), untold(400), untold(400), untold(400), untold(400)}},
		{doneReq("a", sumA), "", with(with(placed, 3, full), 4, untold(200))},
		{doneReq("a", sumA^1), "", with(with(placed, 3, full), 4, untold(422))},
		{readReq("a"), "", with(placed, 4, telling(200, 30))},
		{dropReq("a"), "", [5]impl.Resp{none, full, full, full, full}},
	})
	// Fewer sectors than a send needs: none of it is written.
	for left := range 5 {
		s := serverOf(storeBy(1+left, 0, makeRec("a", 400)))
		for size := 1; size <= 120; size++ {
			want := telling(204, size)
			if (size+23)/24 > left {
				want = untold(507)
			}
			checkServe(t, s, 0, sendReq("a", 0), longSector(size), want)
		}
	}
}

// Data beside an Op that has none is passed over, however long it is.
func TestServeOfDataBesideOtherOps(t *testing.T) {
	for _, st := range slices.Concat(statesOfA(40), statesOfA(-1), []impl.Store{{}, crashed()}) {
		for _, r := range []impl.Req{makeReq("a", 30), makeReq("new", 3), makeReq("new", topWant+1), askReq("a"), askReq("x"), doneReq("a", sumA), doneReq("a", 7), readReq("a"), readReq("x"), dropReq("a"), dropReq("x")} {
			_, want := docServed(st, r, "")
			for _, data := range []string{"", "x", "123456", text24, longSector(25), longSector(400), longSector(401), longSector(5000)} {
				checkServe(t, serverOf(st), 1, r, data, want)
			}
		}
	}
}

func TestServeOfSendsByLengths(t *testing.T) {
	for _, x := range []struct {
		size int
		resp impl.Resp
	}{{0, untold(400)}, {1, telling(204, 1)}, {23, telling(204, 23)}, {24, telling(204, 24)}, {25, telling(204, 25)}, {48, telling(204, 48)}, {49, telling(204, 49)}, {399, telling(204, 399)}, {400, telling(204, 400)}, {401, untold(400)}, {402, untold(400)}, {656, untold(400)}, {4000, untold(400)}} {
		s := serverOf(storeBy(60, 2, makeRec("a", 1000)))
		s = checkServe(t, s, 0, sendReq("a", 0), longSector(x.size), x.resp)
		told := max(0, x.resp.Off)
		s = checkServe(t, s, 0, askReq("a"), "", telling(200, told))
		// Behind it, a send at another place tells how much there is all the same.
		s = checkServe(t, s, 0, sendReq("a", told+1), "x", telling(409, told))
		s = checkServe(t, s, 0, sendReq("a", told), "x", telling(204, told+1))
		checkServe(t, s, 0, sendReq("a", told), "x", telling(409, told+1))
		// A wrong length comes ahead of what else is wrong.
		if x.resp.Status == 400 {
			checkServe(t, serverOf(impl.StoreNew(3)), 0, sendReq("a", 0), longSector(x.size), untold(400))
			checkServe(t, s, 0, sendReq("a", 7), longSector(x.size), untold(400))
			checkServe(t, serverOf(statesOfA(20)[4]), 0, sendReq("a", 30), longSector(x.size), untold(400))
		} else {
			checkServe(t, serverOf(impl.StoreNew(3)), 0, sendReq("a", 0), longSector(x.size), untold(404))
		}
	}
}

// How much there is goes up by what each send brought, over one that is refused in between as well.
func TestServeTellsHowMuchThereIs(t *testing.T) {
	s := checkServe(t, impl.ServerNew(60), 1, makeReq("a", 200), "", telling(201, 0))
	s = checkServe(t, s, 2, makeReq("b", 9), "", telling(201, 0))
	there := 0
	for _, size := range []int{1, 24, 25, 2, 48, 60, 40} {
		for _, off := range []int{there - 1, there + 1, there + size, 0, 200} {
			if off >= 0 && off != there {
				s = checkServe(t, s, 3, sendReq("a", off), longSector(size), telling(409, there))
			}
		}
		s = checkServe(t, s, 3, sendReq("a", there), "", untold(400))
		s = checkServe(t, s, 3, sendReq("a", there), longSector(201-there), telling(409, there))
		s = checkServe(t, s, 3, doneReq("a", 0), "", telling(409, there))
		s = checkServe(t, s, 3, makeReq("a", 200), "", telling(409, there))
		s = checkServe(t, s, 4, sendReq("a", there), longSector(size), telling(204, there+size))
		there += size
		s = checkServe(t, s, 5, askReq("a"), "", telling(200, there))
		s = checkServe(t, s, 5, readReq("a"), "", telling(409, there))
		s = checkServe(t, s, 5, askReq("b"), "", telling(200, 0))
		s, _ = impl.SyncAll(s)
	}
	u, _ := impl.UpAt(s.St, "a")
	s = checkServe(t, s, 6, doneReq("a", sumOf(string(u.Data))), "", untold(200))
	s = checkServe(t, s, 6, readReq("a"), "", telling(200, 200))
	s = checkServe(t, s, 6, sendReq("a", 200), "x", telling(409, 200))
	s = checkServe(t, s, 6, dropReq("a"), "", untold(204))
	s = checkServe(t, s, 6, askReq("a"), "", untold(404))
	s = checkServe(t, s, 6, makeReq("a", 7), "", telling(201, 0))
	checkServe(t, s, 6, askReq("a"), "", telling(200, 0))
}

func TestServeOfDone(t *testing.T) {
	s := checkServe(t, impl.ServerNew(9), 1, makeReq("a", 5), "", telling(201, 0))
	right := sumOf("hello")
	s = checkServe(t, s, 1, doneReq("a", right), "", telling(409, 0))
	s = checkServe(t, s, 1, sendReq("a", 0), "hell", telling(204, 4))
	s = checkServe(t, s, 1, doneReq("a", right), "", telling(409, 4))
	s = checkServe(t, s, 1, doneReq("a", sumOf("hell")), "", telling(409, 4))
	s = checkServe(t, s, 1, sendReq("a", 4), "o", telling(204, 5))
	for bit := range 32 {
		checkServe(t, s, 1, doneReq("a", right^1<<bit), "", untold(422))
	}
	s = checkServe(t, s, 1, doneReq("a", right^1), "", untold(422))
	s = checkServe(t, s, 1, readReq("a"), "", telling(409, 5))
	s = checkServe(t, s, 1, doneReq("a", right), "", untold(200))
	next := s.St.Next
	for range 3 {
		s = checkServe(t, s, 1, doneReq("a", right), "", untold(200))
		s = checkServe(t, s, 1, doneReq("a", right^1), "", untold(422))
		s = checkServe(t, s, 1, readReq("a"), "", telling(200, 5))
	}
	if s.St.Next != next {
		t.Errorf("what was done is written again: %d records, not %d", s.St.Next, next)
	}
	// An upload of no byte is whole from the beginning on, and done only when that is told.
	s = checkServe(t, s, 2, makeReq("z", 0), "", telling(201, 0))
	s = checkServe(t, s, 2, readReq("z"), "", telling(409, 0))
	s = checkServe(t, s, 2, sendReq("z", 0), "x", telling(409, 0))
	s = checkServe(t, s, 2, doneReq("z", 1), "", untold(422))
	s = checkServe(t, s, 2, doneReq("z", sumOf("")), "", untold(200))
	s = checkServe(t, s, 2, readReq("z"), "", telling(200, 0))
	checkServe(t, s, 2, askReq("z"), "", telling(200, 0))
}

func TestServeOfMakesByLengths(t *testing.T) {
	for _, n := range []int{0, 1, 400, 401, topWant - 1, topWant, topWant + 1, topNumber - 1, topNumber} {
		want := telling(201, 0)
		if n > topWant {
			want = untold(400)
		}
		checkServe(t, impl.ServerNew(3), 0, makeReq("a", n), "", want)
		if n > topWant {
			checkServe(t, serverOf(statesOfA(20)[2]), 0, makeReq("a", n), "", untold(400))
			checkServe(t, serverOf(storeBy(11, 1, manyMakes(10)...)), 0, makeReq("x", n), "", untold(400))
		}
	}
}

func TestServeOfManyUploads(t *testing.T) {
	s := impl.ServerNew(100)
	for i := range 10 {
		s = checkServe(t, s, i, makeReq(fmt.Sprint("u", i), 5), "", telling(201, 0))
	}
	s = checkServe(t, s, 10, makeReq("x", 5), "", untold(507))
	s = checkServe(t, s, 10, makeReq("u3", 5), "", telling(409, 0))
	s = checkServe(t, s, 10, sendReq("x", 0), "y", untold(404))
	s = checkServe(t, s, 10, sendReq("u3", 0), "yz", telling(204, 2))
	s = checkServe(t, s, 10, makeReq("u3", 5), "", telling(409, 2))
	s = checkServe(t, s, 10, dropReq("u4"), "", untold(204))
	s = checkServe(t, s, 10, makeReq("x", 5), "", telling(201, 0))
	s = checkServe(t, s, 10, makeReq("u4", 5), "", untold(507))
	for i := range 10 {
		want := telling(200, 0)
		if i == 3 {
			want = telling(200, 2)
		}
		if i == 4 {
			want = untold(404)
		}
		checkServe(t, s, i, askReq(fmt.Sprint("u", i)), "", want)
	}
}

// Each Who is handed on as it is.
func TestServeOfAnyWho(t *testing.T) {
	s := serverOf(statesOfA(20)[2], manyHeld(3)...)
	for _, who := range slices.Concat(greatNumbers, []int{-2, -1, 0, 1, 6, 199, 200, 201}) {
		checkServe(t, s, who, askReq("a"), "", telling(200, 24))
		checkServe(t, s, who, sendReq("a", 24), "x", telling(204, 25))
		checkServe(t, s, who, askReq("x"), "", untold(404))
	}
}

// wrongReqs are not ReqOk, each by one thing.
func wrongReqs() []impl.Req {
	l := []impl.Req{{}, {Id: "a"}, {Op: 7, Id: "a"}, {Op: -1, Id: "a"}, {Op: 256 + 1, Id: "a"}, {Op: 1<<32 + 1, Id: "a"}, {Op: math.MinInt, Id: "a"}, {Op: math.MaxInt, Id: "a"}}
	for _, x := range docOps {
		for _, id := range wrongIds {
			l = append(l, impl.Req{Op: x.op, Id: id})
		}
		for _, n := range []int{-1, x.top + 1, x.top + 2, math.MinInt, math.MaxInt, 1 << 32, 1<<32 + 24} {
			l = append(l, impl.Req{Op: x.op, Id: "a", N: n})
		}
	}
	return l
}

func TestServeOfWrongRequests(t *testing.T) {
	servers := []impl.Server{impl.ServerNew(0), impl.ServerNew(9), serverOf(crashed(), manyHeld(3)...), serverOf(impl.StoreNew(9), manyHeld(200)...)}
	for _, st := range slices.Concat(statesOfA(40), statesOfA(-1)) {
		servers = append(servers, serverOf(st, manyHeld(2)...))
	}
	for _, s := range servers {
		for _, r := range wrongReqs() {
			checkNoServe(t, s, 1, r, "")
			checkNoServe(t, s, 1, r, "x")
		}
	}
}

// rightReqs are ReqOk, of uploads that are there and that are not, with each code.
func rightReqs() []impl.Req {
	return []impl.Req{
		makeReq("new", 5), makeReq("b", 5), makeReq("new", topWant+1), askReq("b"), askReq("x"), sendReq("b", 24), sendReq("b", 0), sendReq("x", 0),
		doneReq("b", sumA), doneReq("b", 7), doneReq("a", 0), doneReq("x", 0), readReq("b"), readReq("a"), readReq("x"), dropReq("b"), dropReq("a"), dropReq("x"),
	}
}

func TestServeOfWrongServers(t *testing.T) {
	l := wrongServers()
	if len(l) < 700 {
		t.Errorf("%d wrong servers", len(l))
	}
	for i, s := range l {
		for j, r := range rightReqs() {
			if (i+j)%4 == 0 || i%20 == 0 {
				checkNoServe(t, s, 2, r, "123456")
			}
		}
		checkNoServe(t, s, 2, impl.Req{}, "")
	}
}

// With 199 that wait one more may come, with 200 none, whatever it asks; behind SyncAll they may again.
func TestServeUpToTheLastThatWaits(t *testing.T) {
	for _, st := range []impl.Store{impl.StoreNew(20), statesOfA(40)[2], statesOfA(-1)[4], crashed()} {
		for _, r := range rightReqs() {
			_, want := docServed(st, r, "123456")
			for _, count := range []int{0, 1, 100, 198, 199} {
				checkServe(t, serverOf(st, manyHeld(count)...), 3, r, "123456", want)
			}
			full := serverOf(st, manyHeld(200)...)
			checkNoServe(t, full, 3, r, "123456")
			checkServe(t, checkSync(t, full), 3, r, "123456", want)
		}
	}
	s := impl.ServerNew(5)
	for i := range 200 {
		s = checkServe(t, s, i, askReq("a"), "", untold(404))
	}
	checkNoServe(t, s, 200, askReq("a"), "")
	checkNoServe(t, s, 200, makeReq("a", 1), "")
	s = checkSync(t, s)
	for i := range 200 {
		s = checkServe(t, s, i, askReq("a"), "", untold(404))
	}
	checkNoServe(t, s, 200, dropReq("a"), "")
}

func TestSyncAll(t *testing.T) {
	checkSync(t, impl.Server{})
	for _, s := range goodServers() {
		got := checkSync(t, s)
		// Behind it nothing waits, and what is sure stays so.
		again, l := impl.SyncAll(got)
		if !sameServer(again, got) || len(l) != 0 {
			t.Errorf("SyncAll of (%s) again: (%s), %d answers", serverTitle(s), serverTitle(again), len(l))
		}
	}
	for _, count := range []int{0, 1, 2, 3, 100, 199, 200} {
		checkSync(t, serverOf(impl.StoreNew(4), manyHeld(count)...))
		checkSync(t, serverOf(crashed(), manyHeld(count)...))
		checkSync(t, serverOf(crashed(), slices.Repeat(manyHeld(1), count)...))
	}
	for _, s := range wrongServers() {
		if got, l := impl.SyncAll(s); !sameServer(got, s) || len(l) != 0 {
			t.Errorf("SyncAll of (%s): (%s), %d answers, not the server and nothing", serverTitle(s), serverTitle(got), len(l))
		}
	}
}

// All come out in the order in which they were served, each to whom it is for, and none twice.
func TestSyncAllInOrder(t *testing.T) {
	s := impl.ServerNew(200)
	var want []impl.Held
	serve := func(who int, r impl.Req, data string, resp impl.Resp) {
		s = checkServe(t, s, who, r, data, resp)
		want = append(want, impl.Held{Who: who, R: resp})
	}
	serve(9, makeReq("b", 3), "", telling(201, 0))
	serve(-3, makeReq("a", 50), "", telling(201, 0))
	for i := range 50 {
		serve(50-i, sendReq("a", i), "x", telling(204, i+1))
		serve(i%7, askReq("b"), "", telling(200, 0))
	}
	serve(1, sendReq("b", 1), "y", telling(409, 0))
	got, l := impl.SyncAll(s)
	if !slices.Equal(l, want) || len(got.Held) != 0 {
		t.Errorf("given out: %v, not %v", l, want)
	}
	got = checkServe(t, got, 4, askReq("a"), "", telling(200, 50))
	if _, l = impl.SyncAll(got); !slices.Equal(l, []impl.Held{{Who: 4, R: telling(200, 50)}}) {
		t.Errorf("given out behind that: %v", l)
	}
}

// Nothing is sure ahead of SyncAll.
func TestSureBehindSyncAllAlone(t *testing.T) {
	s := impl.ServerNew(8)
	for _, x := range []struct {
		r    impl.Req
		data string
	}{{makeReq("a", 30), ""}, {sendReq("a", 0), text24}, {sendReq("a", 24), "123456"}, {doneReq("a", sumA), ""}, {readReq("a"), ""}, {dropReq("a"), ""}} {
		sure := slices.Clone(s.St.Disk.Sure)
		next, ok := impl.Serve(s, 0, x.r, []byte(x.data))
		if !ok || !slices.Equal(next.St.Disk.Sure, sure) {
			t.Errorf("Serve %+v: sure is %q", x.r, next.St.Disk.Sure)
		}
		s = next
	}
	if s = checkSync(t, s); !slices.Equal(s.St.Disk.Sure, s.St.Disk.Now) || s.St.Disk.Sure[4] == "" {
		t.Errorf("SyncAll: sure is %q", s.St.Disk.Sure)
	}
}

func TestCrashServer(t *testing.T) {
	s := checkServe(t, impl.ServerNew(6), 1, makeReq("a", 60), "", telling(201, 0))
	s = checkServe(t, s, 1, sendReq("a", 0), text24, telling(204, 24))
	s = checkSync(t, s)
	s = checkServe(t, s, 1, sendReq("a", 24), text24+"123456", telling(204, 54))
	s = checkServe(t, s, 1, makeReq("b", 0), "", telling(201, 0))
	for _, x := range []struct {
		kept string
		off  int
		b    bool
	}{
		{"", 24, false}, {"n", 24, false}, {"nnn", 24, false}, {"nnnnnn", 24, false}, {"nnnnnnnnn", 24, false}, {"yy", 24, false}, {"yyy", 48, false}, {"nny", 48, false}, {"nnynyn", 48, false},
		{"yyyy", 54, false}, {"nnyy", 54, false}, {"yyyyn", 54, false}, {"yyyyy", 54, true}, {"nnyyy", 54, true}, {"yyyyyy", 54, true}, {"yyyyyyy", 54, true}, {"nnyyynnnn", 54, true}, {"nnnyy", 24, false}, {"nnnny", 24, false}, {"nnnyyyyy", 24, false},
	} {
		got := checkCrash(t, s, keptBy(x.kept), true)
		got = checkServe(t, got, 1, askReq("a"), "", telling(200, x.off))
		want := untold(404)
		if x.b {
			want = telling(200, 0)
		}
		got = checkServe(t, got, 1, askReq("b"), "", want)
		// It goes on from there, and falls again with nothing kept: what was not sure since is gone.
		got = checkServe(t, got, 1, sendReq("a", x.off), "xyz", telling(204, x.off+3))
		got = checkCrash(t, got, nil, true)
		checkServe(t, got, 1, askReq("a"), "", telling(200, x.off))
	}
	// Without SyncAll all of it is gone.
	fresh := checkServe(t, impl.ServerNew(6), 1, makeReq("a", 60), "", telling(201, 0))
	fresh = checkServe(t, fresh, 1, sendReq("a", 0), text24, telling(204, 24))
	checkServe(t, checkCrash(t, fresh, nil, true), 1, askReq("a"), "", untold(404))
	checkServe(t, checkCrash(t, fresh, keptBy("ny"), true), 1, askReq("a"), "", untold(404))
	checkServe(t, checkCrash(t, fresh, keptBy("yn"), true), 1, askReq("a"), "", telling(200, 0))
	checkServe(t, checkCrash(t, fresh, allKept(6), true), 1, askReq("a"), "", telling(200, 24))
	checkServe(t, checkCrash(t, checkSync(t, fresh), nil, true), 1, askReq("a"), "", telling(200, 24))
}

// Each server, with no element of kept, fewer than sectors, as many and more.
func TestCrashServerOfEachServer(t *testing.T) {
	d := drawer(15)
	falls := map[bool]int{}
	for _, s := range goodServers() {
		count := len(s.St.Disk.Now)
		mixes := [][]bool{nil, {}, allKept(count), make([]bool, count), allKept(count + 1), make([]bool, count+7), allKept(max(0, count-1)), allKept(count / 2), allKept(s.St.Next), allKept(1000)}
		for range 6 {
			mixes = append(mixes, d.kept(count+3))
		}
		for _, kept := range mixes {
			_, ok := docCrashed(s, kept)
			falls[ok]++
			checkCrash(t, s, kept, ok)
		}
		synced, _ := impl.SyncAll(s)
		for _, kept := range mixes {
			_, ok := docCrashed(synced, allKept(count))
			checkCrash(t, synced, kept, ok)
		}
	}
	if falls[true] < 100 || falls[false] < 20 {
		t.Errorf("%d crashes open, %d do not", falls[true], falls[false])
	}
	for _, s := range wrongServers() {
		for _, kept := range [][]bool{nil, allKept(5), allKept(201)} {
			checkCrash(t, s, kept, false)
		}
	}
}

// A disk that could be read, of a server that is not ServerOk, does not count.
func TestCrashServerOfWrongHeld(t *testing.T) {
	for _, s := range wrongHeld() {
		checkCrash(t, s, nil, false)
		checkCrash(t, s, allKept(9), false)
		checkCrash(t, serverOf(s.St), allKept(9), true)
	}
}

func TestCrashServerByEpochs(t *testing.T) {
	for _, epoch := range []int{0, 1, 9998, 9999, 10000} {
		s := serverOf(storeBy(5, epoch, makeRec("a", 3)), manyHeld(2)...)
		got := checkCrash(t, s, allKept(5), epoch < 10000)
		if epoch < 10000 && got.St.Epoch != epoch+1 {
			t.Errorf("behind Epoch %d comes %d", epoch, got.St.Epoch)
		}
		// What is not kept does not count.
		got = checkCrash(t, s, nil, true)
		if got.St.Epoch != 0 {
			t.Errorf("of an empty disk comes Epoch %d", got.St.Epoch)
		}
		synced := checkSync(t, s)
		checkCrash(t, synced, nil, epoch < 10000)
		checkCrash(t, synced, allKept(5), epoch < 10000)
		// A stale record counts as well.
		stale := s
		stale.St = withSector(storeBy(5, min(epoch+1, 10000)), 3, onDisk(epoch, 3, recs(makeRec("x", 1)))[0])
		if epoch < 10000 {
			checkCrash(t, stale, allKept(5), true)
		}
	}
	// A store of Epoch 10000 that has written nothing in it opens again.
	s := serverOf(storeBy(5, 9999, makeRec("a", 3)))
	s = checkCrash(t, checkSync(t, s), nil, true)
	if s.St.Epoch != 10000 {
		t.Errorf("behind Epoch 9999 comes %d", s.St.Epoch)
	}
	s = checkCrash(t, s, nil, true)
	s = checkServe(t, s, 0, sendReq("a", 0), "xy", telling(204, 2))
	checkCrash(t, s, keptBy("ny"), false)
	checkServe(t, checkCrash(t, s, keptBy("yn"), true), 0, askReq("a"), "", telling(200, 0))
}

// Where sectors that were sure make no store, it is the server as it was, and false.
func TestCrashServerOfWhatDoesNotFit(t *testing.T) {
	s := serverOf(storeBy(4, 2, makeRec("a", 3), dataRec("a", 0, "xy")), manyHeld(3)...)
	s.St.Disk.Sure = append(onDisk(1, 0, recs(doneRec("q"))), "", "", "")
	checkCrash(t, s, nil, false)
	checkCrash(t, s, keptBy("ny"), false)
	checkCrash(t, s, keptBy("y"), true)
	checkCrash(t, s, keptBy("yy"), true)
}

// reqBy is the request that comes to this call of the store.
func reqBy(o storeOp) impl.Req {
	ops := map[string]int{"MakeUp": impl.OpMake, "PutUp": impl.OpSend, "DoneUp": impl.OpDone, "DropUp": impl.OpDrop}
	return impl.Req{Op: ops[o.call], Id: o.id, N: o.n}
}

// asked draws a request, right mostly, by the uploads that are there, and its data.
func (d *drawer) asked(s impl.Store) (impl.Req, string) {
	o := d.op(s)
	r, data := reqBy(o), o.data
	if r.Op == impl.OpDrop {
		r.N = 0
	}
	if d.draw(4) == 0 {
		r = drawn(d, askReq(o.id), readReq(o.id))
	}
	if len(s.Ups) > 0 && d.draw(8) == 0 {
		r = drawn(d, makeReq(drawn(d, s.Ups...).Id, 5), askReq(drawn(d, s.Ups...).Id), readReq(drawn(d, s.Ups...).Id))
	}
	if r.Op != impl.OpSend && d.draw(3) == 0 {
		data = string(d.bytes(d.draw(30)))
	}
	return r, data
}

// Drawn requests, syncs and crashes, one behind the other, by the chapter's words.
func TestServerByTheChapter(t *testing.T) {
	d := drawer(1515)
	seen := map[string]int{}
	for range 250 {
		s := impl.ServerNew(drawn(&d, 1, 5, 20, 40, 40, 60, 200))
		if d.draw(5) == 0 {
			s.Held = manyHeld(150 + d.draw(51))
		}
		for range 60 {
			r, data := d.asked(s.St)
			who := d.draw(9) - 2
			if !impl.ReqOk(r) || len(s.Held) == 200 {
				seen["refused"]++
				checkNoServe(t, s, who, r, data)
			} else {
				_, want := docServed(s.St, r, data)
				seen[fmt.Sprint(r.Op, " ", want.Status)]++
				s = checkServe(t, s, who, r, data, want)
			}
			switch d.draw(14) {
			case 0:
				s = checkSync(t, s)
			case 1:
				s = checkCrash(t, s, d.kept(len(s.St.Disk.Now)+2), true)
			}
		}
		if t.Failed() {
			return
		}
	}
	for _, title := range []string{"refused", "1 201", "1 400", "1 409", "1 507", "2 200", "2 404", "3 204", "3 400", "3 404", "3 409", "3 507", "4 200", "4 404", "4 409", "4 422", "4 507", "5 200", "5 404", "5 409", "6 204", "6 404", "6 507"} {
		if seen[title] < 5 {
			t.Errorf("%s came %d times: %v", title, seen[title], seen)
		}
	}
}

// An asking is a request, and its data.
type asking struct {
	r    impl.Req
	data string
}

// A tale is what the answers that were given out told, by the Id: how much there is, with its bytes, whether it is done, whether it is gone.
type tale struct {
	data       string
	done, gone bool
}

// hear takes what an answer to r tells; ups are those that were there behind it.
func hear(tales map[string]tale, r impl.Req, resp impl.Resp, ups []impl.Up) {
	if resp.Status == 404 || r.Op == impl.OpDrop && resp.Status == 204 {
		tales[r.Id] = tale{gone: true}
		return
	}
	at := slices.IndexFunc(ups, func(u impl.Up) bool { return u.Id == r.Id })
	x := tales[r.Id]
	switch {
	case r.Op == impl.OpDone && resp.Status == 200:
		x = tale{data: string(ups[at].Data), done: true}
	case resp.Off >= 0:
		x.gone = false
		if resp.Off >= len(x.data) {
			x.data = string(ups[at].Data[:resp.Off])
		}
		x.done = x.done || r.Op == impl.OpRead && resp.Status == 200
	default:
		return
	}
	tales[r.Id] = x
}

// checkTales asks of a store for all that was told. What was asked since may have gone further: more bytes, done, made again or dropped.
func checkTales(t *testing.T, title string, s impl.Store, tales map[string]tale, since []asking) {
	t.Helper()
	for id, x := range tales {
		dropped := slices.ContainsFunc(since, func(a asking) bool { return a.r.Op == impl.OpDrop && a.r.Id == id })
		made := slices.ContainsFunc(since, func(a asking) bool { return a.r.Op == impl.OpMake && a.r.Id == id })
		u, there := impl.UpAt(s, id)
		if x.gone {
			if there && !made {
				t.Errorf("%s: %s is there again", title, id)
			}
			continue
		}
		// A drop that a crash kept takes it away; one that it did not keep takes nothing.
		if dropped && (!there || made) {
			continue
		}
		if !there || !strings.HasPrefix(string(u.Data), x.data) || x.done && !u.Done {
			t.Errorf("%s: of %s %d bytes were told, done %v, there are %d, done %v (%v)", title, id, len(x.data), x.done, len(u.Data), u.Done, there)
		}
	}
}

// Promise 15: made sure behind each number of requests, and fallen with each mix of sectors kept of the others.
func TestWhatWasGivenOutIsNeverLost(t *testing.T) {
	asks := []asking{
		{makeReq("a", 60), ""}, {sendReq("a", 0), text24}, {askReq("a"), ""}, {makeReq("b", 2), ""}, {sendReq("b", 1), "x"}, {sendReq("b", 0), "xy"}, {doneReq("b", sumOf("xy")), ""},
		{readReq("b"), ""}, {sendReq("a", 24), text24 + "abcdefghijkl"}, {makeReq("a", 60), ""}, {doneReq("a", sumOf(text24+text24+"abcdefghijkl")), ""}, {readReq("a"), ""}, {dropReq("b"), ""}, {askReq("b"), ""}, {makeReq("b", 7), ""}, {sendReq("b", 0), "1234567"},
	}
	for _, end := range []int{12, 14, len(asks)} {
		for sure := range end + 1 {
			checkNeverLost(t, asks[:sure], asks[sure:end])
		}
	}
}

// checkNeverLost serves some, gives out their answers, and serves others, of which each mix of sectors is kept.
func checkNeverLost(t *testing.T, sure []asking, since []asking) {
	t.Helper()
	s := impl.ServerNew(14)
	tales := map[string]tale{}
	for i, x := range sure {
		s, _ = impl.Serve(s, i, x.r, []byte(x.data))
		hear(tales, x.r, s.Held[i].R, s.St.Ups)
	}
	s, l := impl.SyncAll(s)
	if len(l) != len(sure) {
		t.Fatalf("%d are given out, not %d", len(l), len(sure))
	}
	from := s.St.Next
	for i, x := range since {
		s, _ = impl.Serve(s, i, x.r, []byte(x.data))
	}
	for mix := range 1 << (s.St.Next - from) {
		kept := make([]bool, 14)
		for i := range s.St.Next - from {
			kept[from+i] = mix>>i&1 == 1
		}
		// Whether what was sure is kept as it is read is all the same.
		for i := range from {
			kept[i] = (mix+i)%3 == 0
		}
		title := fmt.Sprintf("%d given out, %d since, %s", len(sure), len(since), keptTitle(kept))
		got, ok := impl.CrashServer(s, kept)
		if !ok || !impl.ServerOk(got) || len(got.Held) != 0 {
			t.Fatalf("%s: it does not open", title)
		}
		checkTales(t, title, got.St, tales, since)
	}
}

// Promise 15, drawn: served, given out and fallen, again and again, and what was told at first holds to the end.
func TestWhatWasGivenOutIsNeverLostAgain(t *testing.T) {
	d := drawer(151515)
	told := 0
	for round := range 150 {
		s := impl.ServerNew(drawn(&d, 12, 40, 100, 200))
		tales := map[string]tale{}
		for range 12 {
			var since []asking
			var waiting []func()
			for range d.draw(14) {
				r, data := d.asked(s.St)
				if r.Op == impl.OpDrop && round%2 == 0 {
					continue
				}
				next, ok := impl.Serve(s, len(since), r, []byte(data))
				if !ok {
					continue
				}
				s = next
				since = append(since, asking{r, data})
				resp, ups := s.Held[len(s.Held)-1].R, s.St.Ups
				waiting = append(waiting, func() { hear(tales, r, resp, ups) })
				if d.draw(5) == 0 {
					var l []impl.Held
					s, l = impl.SyncAll(s)
					if len(l) != len(waiting) {
						t.Fatalf("%d are given out, not %d", len(l), len(waiting))
					}
					for _, h := range waiting {
						h()
					}
					told += len(waiting)
					since, waiting = nil, nil
				}
			}
			for _, id := range dropsOf(since) {
				delete(tales, id)
			}
			next, ok := impl.CrashServer(s, d.kept(len(s.St.Disk.Now)+2))
			if !ok {
				t.Fatalf("(%s) does not open", serverTitle(s))
			}
			checkTales(t, "behind a crash", next.St, tales, since)
			// What a crash left of those that asked since is not told to anybody: of what is gone it may be there again.
			for id, x := range tales {
				if _, there := impl.UpAt(next.St, id); x.gone && there {
					delete(tales, id)
				}
			}
			s = next
		}
		if t.Failed() {
			return
		}
	}
	if told < 1000 {
		t.Errorf("%d answers were given out", told)
	}
}

func dropsOf(l []asking) []string {
	var ids []string
	for _, x := range l {
		if x.r.Op == impl.OpDrop {
			ids = append(ids, x.r.Id)
		}
	}
	return ids
}

// Without a crash as well, and with SyncAll behind each request: what is given out is sure at once.
func TestGivenOutAtOnceIsSureAtOnce(t *testing.T) {
	d := drawer(150)
	for range 40 {
		s := impl.ServerNew(60)
		for range 30 {
			r, data := d.asked(s.St)
			next, ok := impl.Serve(s, 1, r, []byte(data))
			if !ok {
				continue
			}
			next, _ = impl.SyncAll(next)
			fallen, ok := impl.CrashServer(next, d.kept(60))
			if !ok || !sameUps(fallen.St.Ups, next.St.Ups) {
				t.Fatalf("Serve %+v, SyncAll and a crash: (%s), not the uploads of (%s)", r, serverTitle(fallen), serverTitle(next))
			}
			s = next
			if d.draw(3) == 0 {
				s = fallen
			}
		}
	}
}

// A roomyServer is a server with spare room behind each of its lists, and all of the memory.
type roomyServer struct {
	server impl.Server
	store  roomyStore
	held   []impl.Held
}

func roomyServerOf(s impl.Server, spare int) roomyServer {
	x := roomyServer{store: roomyOf(s.St, spare)}
	x.held = slices.Concat(s.Held, slices.Repeat([]impl.Held{{Who: 77, R: telling(222, 7)}}, spare))
	x.server = impl.Server{St: x.store.store, Held: x.held[:len(s.Held)]}
	return x
}

func (x roomyServer) sameAs(y roomyServer) bool {
	return x.store.sameAs(y.store) && slices.Equal(x.held, y.held)
}

func (x roomyServer) turn() {
	x.store.turn()
	turnHeld(x.held)
}

// turnHeld changes each answer of a list, those of its spare room, too.
func turnHeld(l []impl.Held) {
	l = l[:cap(l)]
	for i := range l {
		l[i] = impl.Held{Who: l[i].Who + 1, R: telling(l[i].R.Status+1, l[i].R.Off+1)}
	}
}

func cloneServer(s impl.Server) impl.Server {
	return roomyServerOf(s, 0).server
}

// A given is what a call answers: a server, and, of SyncAll, what is given out.
type given struct {
	server impl.Server
	out    []impl.Held
	ok     bool
}

func (g given) same(h given) bool {
	return sameServer(g.server, h.server) && slices.Equal(g.out, h.out) && g.ok == h.ok
}

func (g given) clone() given {
	return given{cloneServer(g.server), slices.Clone(g.out), g.ok}
}

// parts change each list of an answer by itself, its spare room, too.
func (g given) parts() []func() {
	return append(storeParts(g.server.St), func() { turnHeld(g.server.Held) }, func() { turnHeld(g.out) })
}

func (g given) turn() {
	for _, turn := range g.parts() {
		turn()
	}
}

// grow appends to each list of an answer, which must be seen in none of them.
func (g given) grow() {
	_ = append(g.server.St.Disk.Now, "more")
	_ = append(g.server.St.Disk.Sure, "more")
	_ = append(g.server.St.Ups, upOf("more", 1, "", false))
	for _, u := range g.server.St.Ups {
		_ = append(u.Data, strings.Repeat("more", 30)...)
	}
	_ = append(g.server.Held, manyHeld(3)...)
	_ = append(g.out, manyHeld(3)...)
}

// serverCalls are the calls that answer a server, with each Op and each answer.
func serverCalls() map[string]func(impl.Server) given {
	calls := map[string]func(impl.Server) given{
		"SyncAll": func(s impl.Server) given {
			next, l := impl.SyncAll(s)
			return given{next, l, false}
		},
		"Serve of nothing": func(s impl.Server) given {
			next, ok := impl.Serve(s, 3, impl.Req{}, nil)
			return given{next, nil, ok}
		},
	}
	for _, r := range rightReqs() {
		calls[fmt.Sprintf("Serve %+v", r)] = func(s impl.Server) given {
			next, ok := impl.Serve(s, 3, r, []byte("123456"))
			return given{next, nil, ok}
		}
	}
	for _, kept := range [][]bool{nil, allKept(4), allKept(201)} {
		calls["CrashServer "+keptTitle(kept)] = func(s impl.Server) given {
			next, ok := impl.CrashServer(s, kept)
			return given{next, nil, ok}
		}
	}
	return calls
}

// A roomyArgument has spare room behind each of its lists, and all of the memory.
type roomyArgument[A any] interface {
	sameAs(A) bool
	turn()
}

// A wholeAnswer is all that a call answers.
type wholeAnswer[G any] interface {
	same(G) bool
	turn()
	grow()
}

// checkMemory asks: nothing is written, nothing is shared with the argument, the spare room tells nothing, and that of the answer is its own.
func checkMemory[A roomyArgument[A], G wholeAnswer[G]](t *testing.T, title string, argument func() A, call func(A) G, want G) {
	t.Helper()
	x, kept := argument(), argument()
	got := call(x)
	if !got.same(want) {
		t.Fatalf("%s: the spare room is seen: %v", title, got)
	}
	if !x.sameAs(kept) {
		t.Fatalf("%s: the argument is written", title)
	}
	x.turn()
	if !got.same(want) {
		t.Fatalf("%s: the answer shares memory with the argument", title)
	}
	kept.turn()
	got.turn()
	if !x.sameAs(kept) {
		t.Fatalf("%s: the argument shares memory with the answer", title)
	}
	got = call(argument())
	got.grow()
	if !got.same(want) {
		t.Fatalf("%s: the spare room of the answer is shared", title)
	}
}

func checkServerMemory(t *testing.T, title string, s impl.Server, spare int, call func(impl.Server) given) {
	t.Helper()
	title = fmt.Sprintf("%s of (%s) with %d spare", title, serverTitle(s), spare)
	argument := func() roomyServer { return roomyServerOf(s, spare) }
	checkMemory(t, title, argument, func(x roomyServer) given { return call(x.server) }, call(cloneServer(s)).clone())
}

func TestMemoryOfTheServer(t *testing.T) {
	for _, s := range slices.Concat(goodServers(), someWrongServers()) {
		for title, call := range serverCalls() {
			for _, spare := range []int{0, 1, 30} {
				checkServerMemory(t, title, s, spare, call)
			}
		}
	}
}

// Each part of an answer by itself: the others are as they were.
func TestPartsOfAServerAreApart(t *testing.T) {
	for i, s := range slices.Concat(goodServers(), someWrongServers()) {
		if i%3 != 0 && len(s.Held) < 3 {
			continue
		}
		for title, call := range serverCalls() {
			want := call(cloneServer(s)).clone()
			for at := range want.parts() {
				got, apart := call(cloneServer(s)), want.clone()
				got.parts()[at]()
				apart.parts()[at]()
				if !got.same(apart) {
					t.Fatalf("%s of (%s): the part %d of the answer shares memory with another", title, serverTitle(s), at)
				}
			}
		}
	}
}

// Both lists of the disk may come in as one memory.
func TestServerOnADiskOfOneMemory(t *testing.T) {
	for _, s := range goodServers() {
		s.St.Disk.Sure = slices.Clone(s.St.Disk.Now)
		for title, call := range serverCalls() {
			want := call(cloneServer(s)).clone()
			one := cloneServer(s)
			one.St.Disk.Sure = one.St.Disk.Now
			got := call(one)
			if !got.same(want) || !slices.Equal(one.St.Disk.Now, s.St.Disk.Now) {
				t.Fatalf("%s of (%s) in one memory: (%s)", title, serverTitle(s), serverTitle(got.server))
			}
			turnSectors(got.server.St.Disk.Now)
			if !slices.Equal(got.server.St.Disk.Sure, want.server.St.Disk.Sure) {
				t.Fatalf("%s of (%s): the lists of the disk share memory", title, serverTitle(s))
			}
		}
	}
}

func TestServerOkLeavesTheServerAlone(t *testing.T) {
	for _, s := range slices.Concat(goodServers(), someWrongServers()) {
		for _, spare := range []int{0, 1, 30, 201} {
			x, kept := roomyServerOf(s, spare), roomyServerOf(s, spare)
			if impl.ServerOk(x.server) != docServerOk(s) || !x.sameAs(kept) {
				t.Errorf("ServerOk of (%s) with %d spare", serverTitle(s), spare)
			}
		}
	}
}

// What is sent is neither written nor kept, and what lies behind it is not read.
func TestMemoryOfWhatIsSent(t *testing.T) {
	for _, size := range []int{0, 1, 23, 24, 25, 100, 400, 401} {
		for _, spare := range []int{0, 1, 30, 500} {
			for _, r := range []impl.Req{sendReq("a", 0), sendReq("a", 3), sendReq("x", 0), makeReq("b", 7), askReq("a"), dropReq("a"), {}} {
				s := serverOf(storeBy(30, 1, makeRec("a", topWant)), manyHeld(2)...)
				data, all := roomy(longSector(size), spare)
				kept := slices.Clone(all)
				want, wantOk := impl.Serve(s, 1, r, []byte(longSector(size)))
				got, ok := impl.Serve(s, 1, r, data)
				if ok != wantOk || !sameServer(got, want) || !slices.Equal(all, kept) {
					t.Errorf("Serve %+v of %d bytes with %d spare: (%s), %v", r, size, spare, serverTitle(got), ok)
				}
				turnAll(all)
				turned := slices.Clone(all)
				if !sameServer(got, want) {
					t.Errorf("Serve %+v of %d bytes with %d spare: they are shared", r, size, spare)
				}
				given{server: got}.turn()
				if !slices.Equal(all, turned) {
					t.Errorf("Serve %+v of %d bytes with %d spare: the answer shares them", r, size, spare)
				}
			}
		}
	}
}

func TestMemoryOfWhatACrashKeeps(t *testing.T) {
	s := checkSync(t, serverOf(storeBy(8, 0, makeRec("a", 60), dataRec("a", 0, text24))))
	s = checkServe(t, s, 0, sendReq("a", 24), text24+"123456", telling(204, 54))
	for count := range 9 {
		// Of what lies behind its length, all is true.
		all := allKept(20)
		for i := range count {
			all[i] = i%2 == 0
		}
		was := slices.Clone(all)
		got, ok := impl.CrashServer(s, all[:count])
		want, wantOk := impl.CrashServer(s, slices.Clone(all[:count]))
		if ok != wantOk || !sameServer(got, want) || !slices.Equal(all, was) {
			t.Errorf("CrashServer, %s with spare room: (%s), %v", keptTitle(all[:count]), serverTitle(got), ok)
		}
		checkCrash(t, s, all[:count], true)
	}
}

// No call keeps anything: what is done to one answer is not seen in the next, and behind a refusal all is as ahead of it.
func TestServerAnswersAlikeAgain(t *testing.T) {
	for i, s := range goodServers() {
		if i%2 == 0 {
			continue
		}
		for title, call := range serverCalls() {
			one, two := call(s), call(s)
			one.turn()
			checkNoServe(t, s, 1, impl.Req{}, "x")
			if three := call(s); !two.same(three) {
				t.Errorf("%s of (%s) hangs on the call ahead: (%s)", title, serverTitle(s), serverTitle(three.server))
			}
		}
	}
	given{server: impl.ServerNew(3)}.turn()
	checkSync(t, impl.ServerNew(3))
	checkCrash(t, impl.ServerNew(3), nil, true)
}
