package tests

import (
	"fmt"
	"math"
	"slices"
	"strings"
	"testing"

	"loop.example/g00199/impl"
)

const (
	mostWait  = 60
	mostPlays = 200
)

func sending(at int) impl.Event              { return impl.Event{Kind: impl.EvSend, At: at} }
func serving(at int) impl.Event              { return impl.Event{Kind: impl.EvServe, At: at} }
func syncing() impl.Event                    { return impl.Event{Kind: impl.EvSync} }
func tellingAt(at int) impl.Event            { return impl.Event{Kind: impl.EvTell, At: at} }
func cutting(at int) impl.Event              { return impl.Event{Kind: impl.EvCut, At: at} }
func crashing(kept ...bool) impl.Event       { return impl.Event{Kind: impl.EvCrash, Kept: kept} }
func heldFor(who int, r impl.Resp) impl.Held { return impl.Held{Who: who, R: r} }

func wantOf(who int, r impl.Req, data string) impl.Want {
	return impl.Want{Who: who, R: r, Data: []byte(data)}
}

func sameWant(a impl.Want, b impl.Want) bool {
	return a.Who == b.Who && a.R == b.R && string(a.Data) == string(b.Data)
}

func sameWorld(a impl.World, b impl.World) bool {
	between := slices.EqualFunc(a.Asks, b.Asks, sameWant) && slices.Equal(a.Tells, b.Tells)
	return sameServer(a.Sv, b.Sv) && slices.EqualFunc(a.Cls, b.Cls, sameClient) && slices.Equal(a.Busy, b.Busy) && between && slices.Equal(a.Best, b.Best)
}

func worldTitle(w impl.World) string {
	s := ""
	for _, c := range w.Cls {
		s += fmt.Sprintf(" [%s]", clientTitle(c))
	}
	asks := ""
	for _, a := range w.Asks {
		asks += fmt.Sprintf(" %d:%+v+%d", a.Who, a.R, len(a.Data))
	}
	return fmt.Sprintf("%s; %d clients%s, busy %v, best %v; %d asks%.200s; %d tells %.120s", serverTitle(w.Sv), len(w.Cls), s, w.Busy, w.Best, len(w.Asks), asks, len(w.Tells), fmt.Sprint(w.Tells))
}

func eventTitle(e impl.Event) string {
	return fmt.Sprintf("the event %d at %d, %s", e.Kind, e.At, keptTitle(e.Kept))
}

// atRest is a world of these, in which nothing is on its way.
func atRest(s impl.Server, cls ...impl.Client) impl.World {
	return impl.World{Sv: s, Cls: cls, Busy: make([]bool, len(cls)), Best: slices.Repeat([]int{-1}, len(cls))}
}

// sixClients are at each Step one; the file of a is there up to its byte 24 in the server of crowded.
func sixClients() []impl.Client {
	return []impl.Client{
		clientOf("a", text24+"123456", impl.ClSend, 24), clientOf("b", "hello", impl.ClMake, 0), clientOf("c", longSector(60), impl.ClAsk, 30),
		clientOf("d", "xyz", impl.ClSum, 3), clientOf("e", "", impl.ClDone, 0), clientOf("f", "file", impl.ClFail, 2),
	}
}

// manyAsks are so many requests of these clients in turn, right ones of each Op.
func manyAsks(count int, clients int) []impl.Want {
	var l []impl.Want
	reqs := append(rightReqs(), sendReq("a", 24), makeReq("c", 60), doneReq("d", sumOf("xyz")))
	for i := range count {
		l = append(l, wantOf((i*5+2)%clients, reqs[i%len(reqs)], longSector(i%30)))
	}
	return l
}

// manyTells are so many answers to these clients in turn.
func manyTells(count int, clients int) []impl.Held {
	var l []impl.Held
	statuses := []int{200, 201, 204, 409, 404, 507, 422}
	for i := range count {
		l = append(l, heldFor((i*7+1)%clients, telling(statuses[i%len(statuses)], i%40-1)))
	}
	return l
}

// crowded has six clients, three of them busy, and several requests and answers of each on their way, and some that wait.
func crowded() impl.World {
	st := storeBy(30, 2, makeRec("a", 30), dataRec("a", 0, text24), makeRec("d", 3), dataRec("d", 0, "xyz"), makeRec("e", 0), doneRec("e"))
	st.Disk.Sure = slices.Concat(st.Disk.Now[:3], make([]string, 27))
	w := atRest(serverOf(st, manyTells(13, 6)...), sixClients()...)
	w.Busy = []bool{true, false, true, false, false, true}
	w.Best = []int{24, -1, 10, 0, 7, -1}
	w.Asks, w.Tells = manyAsks(20, 6), manyTells(17, 6)
	return w
}

// docWorldOk goes through the chapter's words one by one.
func docWorldOk(w impl.World) bool {
	if !docServerOk(w.Sv) || len(w.Cls) > 6 || len(w.Busy) != len(w.Cls) || len(w.Best) != len(w.Cls) || len(w.Asks) > 60 || len(w.Tells) > 60 {
		return false
	}
	ids := map[string]int{}
	for i, c := range w.Cls {
		if ids[c.Id]++; ids[c.Id] > 1 || !docClientOk(c) || w.Best[i] < -1 {
			return false
		}
	}
	for _, a := range w.Asks {
		if a.Who < 0 || a.Who >= len(w.Cls) || !impl.ReqOk(a.R) {
			return false
		}
	}
	for _, h := range slices.Concat(w.Tells, w.Sv.Held) {
		if h.Who < 0 || h.Who >= len(w.Cls) || h.R.Status < 100 || h.R.Status > 599 || h.R.Off < -1 || h.R.Off > topNumber {
			return false
		}
	}
	return true
}

// docDo is, by the chapter's words, the world behind an event, and whether it came to be.
func docDo(w impl.World, e impl.Event) (impl.World, bool) {
	if !docWorldOk(w) {
		return w, false
	}
	next, ok := cloneWorld(w), false
	switch e.Kind {
	case 1:
		ok = docSends(&next, e.At)
	case 2:
		ok = docServes(&next, e.At)
	case 3:
		ok = docSyncs(&next)
	case 4:
		ok = docTells(&next, e.At)
	case 5:
		ok = docCuts(&next, e.At)
	case 6:
		ok = docCrashes(&next, e.Kept)
	}
	if !ok {
		return w, false
	}
	return next, true
}

func docSends(w *impl.World, at int) bool {
	if at < 0 || at >= len(w.Cls) || w.Busy[at] || len(w.Asks) == 60 {
		return false
	}
	r, data, ok := docNext(w.Cls[at])
	if ok {
		w.Busy[at] = true
		w.Asks = append(w.Asks, wantOf(at, r, data))
	}
	return ok
}

func docServes(w *impl.World, at int) bool {
	if at < 0 || at >= len(w.Asks) || len(w.Sv.Held) == 200 {
		return false
	}
	a := w.Asks[at]
	st, r := docServed(w.Sv.St, a.R, string(a.Data))
	w.Sv = serverOf(st, append(w.Sv.Held, heldFor(a.Who, r))...)
	w.Asks = slices.Concat(w.Asks[:at], w.Asks[at+1:])
	return true
}

func docSyncs(w *impl.World) bool {
	if len(w.Tells)+len(w.Sv.Held) > 60 {
		return false
	}
	w.Tells = slices.Concat(w.Tells, w.Sv.Held)
	w.Sv.Held = nil
	w.Sv.St.Disk.Sure = w.Sv.St.Disk.Now
	return true
}

func docTells(w *impl.World, at int) bool {
	if at < 0 || at >= len(w.Tells) {
		return false
	}
	h := w.Tells[at]
	w.Tells = slices.Concat(w.Tells[:at], w.Tells[at+1:])
	if w.Busy[h.Who] {
		w.Busy[h.Who] = false
		w.Cls[h.Who] = docHeard(w.Cls[h.Who], h.R)
		if h.R.Off > w.Best[h.Who] {
			w.Best[h.Who] = h.R.Off
		}
	}
	return true
}

// notOf are the items that are not this client's, in order.
func notOf[T any](l []T, who int, whose func(T) int) []T {
	var out []T
	for _, item := range l {
		if whose(item) != who {
			out = append(out, item)
		}
	}
	return out
}

func docCuts(w *impl.World, at int) bool {
	if at < 0 || at >= len(w.Cls) {
		return false
	}
	toWhom := func(h impl.Held) int { return h.Who }
	w.Asks = notOf(w.Asks, at, func(a impl.Want) int { return a.Who })
	w.Tells, w.Sv.Held = notOf(w.Tells, at, toWhom), notOf(w.Sv.Held, at, toWhom)
	w.Cls[at], w.Busy[at] = docCut(w.Cls[at]), false
	return true
}

func docCrashes(w *impl.World, kept []bool) bool {
	s, ok := docCrashed(w.Sv, kept)
	if !ok {
		return false
	}
	w.Sv, w.Asks, w.Tells = s, nil, nil
	for i := range w.Cls {
		w.Cls[i], w.Busy[i] = docCut(w.Cls[i]), false
	}
	return true
}

func checkWorldOk(t *testing.T, title string, w impl.World, want bool) {
	t.Helper()
	if got := impl.WorldOk(w); got != want {
		t.Errorf("%s: WorldOk of (%s) is %v", title, worldTitle(w), got)
	}
	if got := docWorldOk(w); got != want {
		t.Errorf("%s: docWorldOk of (%s) is %v", title, worldTitle(w), got)
	}
}

// checkDone asks for what the chapter's words give, and whether it came to be; what is refused is the world as it was.
func checkDone(t *testing.T, w impl.World, e impl.Event, wantOk bool) impl.World {
	t.Helper()
	want, ok := docDo(w, e)
	if ok != wantOk {
		t.Errorf("%s, of (%s): the chapter's words give %v", eventTitle(e), worldTitle(w), ok)
	}
	got, ok := impl.Do(w, e)
	if ok != wantOk || !sameWorld(got, want) {
		t.Errorf("%s, of (%s): (%s), %v, not (%s), %v", eventTitle(e), worldTitle(w), worldTitle(got), ok, worldTitle(want), wantOk)
	}
	if !ok && !sameWorld(got, w) {
		t.Errorf("%s, of (%s): what is refused changes it: (%s)", eventTitle(e), worldTitle(w), worldTitle(got))
	}
	if ok && !impl.WorldOk(got) {
		t.Errorf("%s, of (%s): (%s) is not WorldOk", eventTitle(e), worldTitle(w), worldTitle(got))
	}
	return got
}

func checkDo(t *testing.T, w impl.World, e impl.Event) impl.World {
	t.Helper()
	return checkDone(t, w, e, true)
}

// checkNoDo asks for the world as it was, and false, of each of these.
func checkNoDo(t *testing.T, w impl.World, l ...impl.Event) {
	t.Helper()
	for _, e := range l {
		checkDone(t, w, e, false)
	}
}

// checkPlay asks for what the first 200 events give one by one.
func checkPlay(t *testing.T, w impl.World, l []impl.Event) impl.World {
	t.Helper()
	want, doc := w, w
	for _, e := range l[:min(200, len(l))] {
		want, _ = impl.Do(want, e)
		doc, _ = docDo(doc, e)
	}
	got := impl.Play(w, l)
	if !sameWorld(got, want) || !sameWorld(got, doc) {
		t.Errorf("Play of %d events, of (%s): (%s), not (%s), and by the chapter's words (%s)", len(l), worldTitle(w), worldTitle(got), worldTitle(want), worldTitle(doc))
	}
	return got
}

func TestConstantsOfWorlds(t *testing.T) {
	kinds := []int{impl.EvSend, impl.EvServe, impl.EvSync, impl.EvTell, impl.EvCut, impl.EvCrash}
	if !slices.Equal(kinds, []int{1, 2, 3, 4, 5, 6}) || impl.MaxWait != mostWait {
		t.Errorf("kinds are %v, MaxWait %d", kinds, impl.MaxWait)
	}
}

// checkNew asks for a world of these, all at rest.
func checkNew(t *testing.T, n int, cls ...impl.Client) impl.World {
	t.Helper()
	got, want := impl.WorldNew(n, cls), atRest(impl.ServerNew(n), cls...)
	if !sameWorld(got, want) {
		t.Errorf("WorldNew of %d sectors: (%s), not (%s)", n, worldTitle(got), worldTitle(want))
	}
	checkWorldOk(t, "WorldNew", got, true)
	return got
}

func TestWorldNew(t *testing.T) {
	cls := sixClients()
	for _, n := range []int{0, 1, 2, 40, 100, 199, 200} {
		for count := range 7 {
			w := checkNew(t, n, cls[:count]...)
			if len(w.Sv.St.Disk.Now) != n || len(w.Cls) != count || len(w.Busy) != count || len(w.Best) != count {
				t.Errorf("WorldNew of %d sectors, %d clients: (%s)", n, count, worldTitle(w))
			}
		}
	}
	// Of what ServerNew refuses, it gives a server without sectors, which is ServerOk.
	for _, n := range slices.Concat(greatNumbers, []int{-1, -2, -200, 201, 202, 256, 1000}) {
		w := checkNew(t, n, cls...)
		if len(w.Sv.St.Disk.Now) != 0 || len(w.Cls) != 6 {
			t.Errorf("WorldNew of %d sectors: (%s)", n, worldTitle(w))
		}
	}
	if got := impl.WorldNew(0, nil); !sameWorld(got, impl.World{}) {
		t.Errorf("WorldNew of nothing: (%s)", worldTitle(got))
	}
	// Clients at each Step, with each place, come in as they are.
	for i, c := range goodClients() {
		if i%11 == 0 && c.Id != "b" {
			checkNew(t, 3, c, cls[1])
			checkNew(t, 3, cls[1], c)
		}
	}
}

func TestWorldNewOfWhatMayNotBe(t *testing.T) {
	checkNone := func(n int, cls ...impl.Client) {
		t.Helper()
		if got := impl.WorldNew(n, cls); !sameWorld(got, impl.World{}) {
			t.Errorf("WorldNew of %d sectors and %d clients: (%s), not the zero one", n, len(cls), worldTitle(got))
		}
		checkWorldOk(t, "WorldNew", atRest(impl.ServerNew(n), cls...), false)
	}
	seven := append(sixClients(), clientOf("g", "file", impl.ClMake, 0))
	for _, n := range []int{-1, 0, 40, 200, 201} {
		checkNone(n, seven...)
		checkNone(n, append(slices.Clone(seven), clientOf("h", "", impl.ClMake, 0))...)
		for i := range 6 {
			for j := range i {
				cls := sixClients()
				cls[i].Id = cls[j].Id
				checkNone(n, cls...)
				checkNone(n, cls[j], cls[i])
			}
		}
		checkNone(n, seven[0], seven[0])
		checkNone(n, slices.Repeat(seven, 30)...)
	}
	for i, c := range wrongClients() {
		cls := sixClients()
		cls[i%6] = c
		checkNone(40, cls...)
		checkNone(40, c)
	}
	checkNone(40, impl.Client{})
	checkNone(40, impl.ClientNew("a", nil), impl.ClientNew("A", nil))
}

// A changedWorld is crowded, with one thing changed.
type changedWorld struct {
	title string
	ok    bool
	world impl.World
}

func worldChangedBy(title string, ok bool, change func(w *impl.World)) changedWorld {
	w := crowded()
	change(&w)
	return changedWorld{title, ok, w}
}

func changedServers() []changedWorld {
	l := []changedWorld{
		worldChangedBy("next", false, func(w *impl.World) { w.Sv.St.Next++ }),
		worldChangedBy("epoch", false, func(w *impl.World) { w.Sv.St.Epoch = 1 }),
		worldChangedBy("greater epoch", true, func(w *impl.World) { w.Sv.St.Epoch = 10000 }),
		worldChangedBy("too great epoch", false, func(w *impl.World) { w.Sv.St.Epoch = 10001 }),
		worldChangedBy("no upload", false, func(w *impl.World) { w.Sv.St.Ups = nil }),
		worldChangedBy("no sector that is sure", false, func(w *impl.World) { w.Sv.St.Disk.Sure = nil }),
		worldChangedBy("other sectors that are sure", true, func(w *impl.World) { w.Sv.St.Disk.Sure = manySectors(30, "sure") }),
		worldChangedBy("another server", true, func(w *impl.World) { w.Sv = impl.Server{} }),
	}
	for _, count := range []int{0, 1, 199, 200, 201, 202, 456} {
		l = append(l, worldChangedBy(fmt.Sprint(count, " that wait"), count <= 200, func(w *impl.World) { w.Sv.Held = manyTells(count, 6) }))
	}
	for i, s := range goodStores() {
		l = append(l, worldChangedBy(fmt.Sprint("good store ", i), true, func(w *impl.World) { w.Sv.St = s }))
	}
	for i, s := range someWrongStores() {
		l = append(l, worldChangedBy(fmt.Sprint("wrong store ", i), false, func(w *impl.World) { w.Sv.St = s }))
	}
	return l
}

func changedClients() []changedWorld {
	var l []changedWorld
	for i, c := range wrongClients() {
		l = append(l, worldChangedBy(fmt.Sprint("wrong client ", i), false, func(w *impl.World) { w.Cls[i%6] = c }))
	}
	for i := range 6 {
		for j := range 6 {
			l = append(l, worldChangedBy(fmt.Sprint("one Id at ", i, " and ", j), i == j, func(w *impl.World) { w.Cls[i].Id = w.Cls[j].Id }))
		}
		for step := impl.ClMake; step <= impl.ClFail; step++ {
			l = append(l, worldChangedBy(fmt.Sprint("step ", step, " at ", i), true, func(w *impl.World) { w.Cls[i].Step = step }))
		}
	}
	return append(l,
		worldChangedBy("seven clients", false, func(w *impl.World) {
			w.Cls, w.Busy, w.Best = append(w.Cls, clientOf("g", "", 1, 0)), append(w.Busy, false), append(w.Best, -1)
		}),
		worldChangedBy("a client more", false, func(w *impl.World) { w.Cls = append(w.Cls, clientOf("g", "", 1, 0)) }),
		worldChangedBy("a client less", false, func(w *impl.World) { w.Cls = w.Cls[:5] }),
		worldChangedBy("no client", false, func(w *impl.World) { w.Cls, w.Busy, w.Best = nil, nil, nil }),
		worldChangedBy("no client, and nothing on its way", true, func(w *impl.World) { *w = atRest(serverOf(w.Sv.St)) }),
		worldChangedBy("five clients, none of the sixth on its way", true, func(w *impl.World) {
			w.Cls, w.Busy, w.Best = w.Cls[:5], w.Busy[:5], w.Best[:5]
			w.Asks, w.Tells, w.Sv.Held = manyAsks(7, 5), manyTells(7, 5), manyTells(7, 5)
		}),
		worldChangedBy("five clients, a request of the sixth", false, func(w *impl.World) {
			w.Cls, w.Busy, w.Best = w.Cls[:5], w.Busy[:5], w.Best[:5]
			w.Asks, w.Tells, w.Sv.Held = []impl.Want{wantOf(5, askReq("f"), "")}, nil, nil
		}),
	)
}

func changedBusyAndBest() []changedWorld {
	l := []changedWorld{
		worldChangedBy("busy one shorter", false, func(w *impl.World) { w.Busy = w.Busy[:5] }),
		worldChangedBy("busy one longer", false, func(w *impl.World) { w.Busy = append(w.Busy, false) }),
		worldChangedBy("no busy", false, func(w *impl.World) { w.Busy = nil }),
		worldChangedBy("best one shorter", false, func(w *impl.World) { w.Best = w.Best[:5] }),
		worldChangedBy("best one longer", false, func(w *impl.World) { w.Best = append(w.Best, -1) }),
		worldChangedBy("no best", false, func(w *impl.World) { w.Best = nil }),
		// Whether something of who is busy is on its way, no word asks.
		worldChangedBy("all busy", true, func(w *impl.World) { w.Busy = allKept(6) }),
		worldChangedBy("none busy", true, func(w *impl.World) { w.Busy = make([]bool, 6) }),
		worldChangedBy("all busy, nothing on its way", true, func(w *impl.World) { w.Busy, w.Asks, w.Tells, w.Sv.Held = allKept(6), nil, nil, nil }),
	}
	for i := range 6 {
		for _, best := range []int{math.MinInt, -1 << 32, -3, -2, -1, 0, 1, 30, 400, 401, topNumber} {
			l = append(l, worldChangedBy(fmt.Sprint("best ", best, " at ", i), best >= -1, func(w *impl.World) { w.Best[i] = best }))
		}
	}
	return l
}

func changedOnTheirWay() []changedWorld {
	var l []changedWorld
	for _, who := range slices.Concat(greatNumbers, []int{-2, -1, 0, 4, 5, 6, 7, 256, 261}) {
		ok := who >= 0 && who <= 5
		for _, at := range []int{0, 6, 12} {
			title := fmt.Sprint(who, " at ", at)
			l = append(l, worldChangedBy("a request of "+title, ok, func(w *impl.World) { w.Asks[at].Who = who }))
			l = append(l, worldChangedBy("an answer to "+title, ok, func(w *impl.World) { w.Tells[at].Who = who }))
			l = append(l, worldChangedBy("an answer that waits for "+title, ok, func(w *impl.World) { w.Sv.Held[at].Who = who }))
		}
	}
	for i, r := range wrongReqs() {
		l = append(l, worldChangedBy(fmt.Sprint("wrong request ", i), false, func(w *impl.World) { w.Asks[i%20].R = r }))
	}
	for i, r := range wrongResps {
		l = append(l, worldChangedBy(fmt.Sprint("wrong answer ", i), false, func(w *impl.World) { w.Tells[i%17].R = r }))
		l = append(l, worldChangedBy(fmt.Sprint("wrong answer that waits ", i), false, func(w *impl.World) { w.Sv.Held[i%13].R = r }))
	}
	for _, count := range []int{0, 1, 59, 60, 61, 62, 120, 256, 300} {
		l = append(l, worldChangedBy(fmt.Sprint(count, " requests"), count <= 60, func(w *impl.World) { w.Asks = manyAsks(count, 6) }))
		l = append(l, worldChangedBy(fmt.Sprint(count, " answers"), count <= 60, func(w *impl.World) { w.Tells = manyTells(count, 6) }))
		l = append(l, worldChangedBy(fmt.Sprint(count, " of each"), count <= 60, func(w *impl.World) { w.Asks, w.Tells = manyAsks(count, 6), manyTells(count, 6) }))
	}
	for _, size := range []int{0, 1, 400, 401, 5000} {
		l = append(l, worldChangedBy(fmt.Sprint("data of ", size), true, func(w *impl.World) { w.Asks[3].Data = []byte(longSector(size)) }))
	}
	return l
}

func changedWorlds() []changedWorld {
	return slices.Concat(changedServers(), changedClients(), changedBusyAndBest(), changedOnTheirWay())
}

func TestWorldOk(t *testing.T) {
	checkWorldOk(t, "the zero one", impl.World{}, true)
	checkWorldOk(t, "crowded", crowded(), true)
	counts := map[bool]int{}
	for _, x := range changedWorlds() {
		checkWorldOk(t, x.title, x.world, x.ok)
		counts[x.ok]++
	}
	if counts[true] < 100 || counts[false] < 700 {
		t.Errorf("%d changed worlds are right, %d wrong", counts[true], counts[false])
	}
}

// fewChanged are as many of the changed worlds as a test has time for.
func fewChanged(step int) []impl.World {
	l := []impl.World{crowded(), {}}
	for i, x := range changedWorlds() {
		if i%step == 0 {
			l = append(l, x.world)
		}
	}
	return l
}

// eachEvent has each Kind at some places, and none.
func eachEvent() []impl.Event {
	l := []impl.Event{{}, {Kind: 7}, {Kind: -1}, syncing(), crashing(), crashing(allKept(30)...), crashing(keptBy("yyyyny")...)}
	for _, at := range []int{-1, 0, 1, 2, 5, 6, 12, 16, 19, 20} {
		l = append(l, sending(at), serving(at), tellingAt(at), cutting(at))
	}
	return l
}

func TestDoOfWorldsThatAreNotRight(t *testing.T) {
	count := 0
	for i, x := range changedWorlds() {
		if x.ok {
			continue
		}
		for j, e := range eachEvent() {
			if (i+j)%5 == 0 {
				checkNoDo(t, x.world, e)
			}
		}
		if got := impl.Play(x.world, eachEvent()); !sameWorld(got, x.world) {
			t.Errorf("Play of (%s), %s: (%s)", x.title, worldTitle(x.world), worldTitle(got))
		}
		count++
	}
	if count < 700 {
		t.Errorf("%d wrong worlds", count)
	}
}

func TestDoOfChangedWorlds(t *testing.T) {
	for _, x := range changedWorlds() {
		if !x.ok {
			continue
		}
		for _, e := range eachEvent() {
			_, ok := docDo(x.world, e)
			checkDone(t, x.world, e, ok)
		}
		checkPlay(t, x.world, eachEvent())
	}
}

func TestDoOfNoKind(t *testing.T) {
	for _, w := range []impl.World{{}, crowded(), impl.WorldNew(20, sixClients())} {
		for _, kind := range slices.Concat(greatNumbers, []int{0, 7, -1, -6, 8, 255, 256, 257, 262, 1<<16 + 1, 1<<32 + 6}) {
			for _, at := range []int{-1, 0, 1, 5} {
				checkNoDo(t, w, impl.Event{Kind: kind, At: at}, impl.Event{Kind: kind, At: at, Kept: allKept(30)})
			}
		}
	}
}

// wrongPlaces are below 0, or past a list of so many.
func wrongPlaces(count int) []int {
	return slices.Concat([]int{-1, -2, -count, -256, count, count + 1, 256 + count, 1<<16 + count, 1 << 32}, greatNumbers)
}

func TestDoOfPlaces(t *testing.T) {
	w := crowded()
	for _, x := range []struct{ kind, count int }{{impl.EvSend, 6}, {impl.EvServe, 20}, {impl.EvTell, 17}, {impl.EvCut, 6}} {
		for _, at := range wrongPlaces(x.count) {
			if at < 0 || at >= x.count {
				checkNoDo(t, w, impl.Event{Kind: x.kind, At: at})
			}
		}
		for at := range x.count {
			e := impl.Event{Kind: x.kind, At: at}
			free := !w.Busy[at%6] && w.Cls[at%6].Step < impl.ClDone
			checkDone(t, w, e, x.kind != impl.EvSend || free)
			// What an event does not ask for is passed over.
			one, _ := impl.Do(w, e)
			e.Kept = allKept(40)
			if two, _ := impl.Do(w, e); !sameWorld(one, two) {
				t.Errorf("%s: (%s) hangs on Kept", eventTitle(e), worldTitle(two))
			}
		}
	}
	for _, at := range wrongPlaces(6) {
		checkDo(t, w, impl.Event{Kind: impl.EvSync, At: at, Kept: allKept(3)})
		checkDo(t, w, impl.Event{Kind: impl.EvCrash, At: at})
	}
	// In a world of none there is no place.
	for kind := range 8 {
		for _, at := range wrongPlaces(0) {
			checkDone(t, impl.World{}, impl.Event{Kind: kind, At: at}, kind == impl.EvSync || kind == impl.EvCrash)
		}
	}
}

func TestSend(t *testing.T) {
	file := text24 + text24 + "123456"
	for step := impl.ClMake; step <= impl.ClFail; step++ {
		for _, off := range []int{0, 1, 24, 30, 53, 54} {
			w := checkNew(t, 9, clientOf("b", "hello", impl.ClMake, 0), clientOf("a", file, step, off), clientOf("c", "", impl.ClAsk, 0))
			if step >= impl.ClDone {
				checkNoDo(t, w, sending(1))
				continue
			}
			got := checkDo(t, w, sending(1))
			want := map[int]impl.Want{
				impl.ClMake: wantOf(1, makeReq("a", 54), ""), impl.ClAsk: wantOf(1, askReq("a"), ""),
				impl.ClSend: wantOf(1, sendReq("a", off), file[off:min(54, off+24)]), impl.ClSum: wantOf(1, doneReq("a", sumOf(file)), ""),
			}[step]
			if len(got.Asks) != 1 || !sameWant(got.Asks[0], want) || !slices.Equal(got.Busy, []bool{false, true, false}) {
				t.Errorf("step %d: (%s)", step, worldTitle(got))
			}
			// Who is busy sends nothing, the others may, each behind those ahead.
			checkNoDo(t, got, sending(1))
			got = checkDo(t, got, sending(2))
			got = checkDo(t, got, sending(0))
			checkNoDo(t, got, sending(0), sending(1), sending(2), sending(3))
			if len(got.Asks) != 3 || got.Asks[1].Who != 2 || got.Asks[2].Who != 0 {
				t.Errorf("step %d: (%s)", step, worldTitle(got))
			}
		}
	}
}

// A client at each Step, busy or not: a busy one sends nothing, whatever it would ask for.
func TestSendOfBusyOnes(t *testing.T) {
	for i, c := range goodClients() {
		if i%5 != 0 {
			continue
		}
		w := atRest(impl.ServerNew(3), c)
		checkDone(t, w, sending(0), c.Step < impl.ClDone)
		w.Busy[0] = true
		checkNoDo(t, w, sending(0))
	}
}

func TestSendUpToTheLastRequest(t *testing.T) {
	for _, count := range []int{0, 1, 30, 58, 59, 60} {
		w := crowded()
		w.Asks = manyAsks(count, 6)
		if count == 60 {
			checkNoDo(t, w, sending(0), sending(1), sending(3), sending(4))
			continue
		}
		got := checkDo(t, w, sending(1))
		if len(got.Asks) != count+1 || !sameWant(got.Asks[count], wantOf(1, makeReq("b", 5), "")) {
			t.Errorf("behind %d requests: (%s)", count, worldTitle(got))
		}
		checkDone(t, got, sending(3), count < 59)
	}
	// How many answers are on their way, or wait, is all the same.
	w := crowded()
	w.Asks, w.Tells, w.Sv.Held = manyAsks(59, 6), manyTells(60, 6), manyTells(200, 6)
	checkDo(t, w, sending(1))
	// One that is served makes room.
	w = crowded()
	w.Asks = manyAsks(60, 6)
	checkNoDo(t, w, sending(1))
	checkDo(t, checkDo(t, w, serving(59)), sending(1))
}

func TestServe(t *testing.T) {
	w := crowded()
	for at := range w.Asks {
		got := checkDo(t, w, serving(at))
		rest := slices.Concat(w.Asks[:at], w.Asks[at+1:])
		_, r := docServed(w.Sv.St, w.Asks[at].R, string(w.Asks[at].Data))
		held := append(slices.Clone(w.Sv.Held), heldFor(w.Asks[at].Who, r))
		if !slices.EqualFunc(got.Asks, rest, sameWant) || !slices.Equal(got.Sv.Held, held) || !slices.Equal(got.Tells, w.Tells) || !slices.Equal(got.Busy, w.Busy) {
			t.Errorf("served at %d: (%s)", at, worldTitle(got))
		}
	}
	// From the front on, and from the back on: all of them.
	for _, back := range []bool{false, true} {
		got := crowded()
		for left := 20; left > 0; left-- {
			at := 0
			if back {
				at = left - 1
			}
			got = checkDo(t, got, serving(at))
		}
		checkNoDo(t, got, serving(0))
		if len(got.Sv.Held) != 33 {
			t.Errorf("behind all requests: (%s)", worldTitle(got))
		}
	}
}

// The answer waits: it is not on its way, and its client stays busy.
func TestServeOfEachAnswer(t *testing.T) {
	base := crowded()
	for _, x := range []struct {
		ask  impl.Want
		resp impl.Resp
	}{
		{wantOf(0, sendReq("a", 24), "123456"), telling(204, 30)}, {wantOf(0, sendReq("a", 24), "1"), telling(204, 25)}, {wantOf(0, sendReq("a", 0), "1"), telling(409, 24)}, {wantOf(0, sendReq("a", 24), ""), untold(400)},
		{wantOf(1, makeReq("b", 5), ""), telling(201, 0)}, {wantOf(1, makeReq("a", 5), ""), telling(409, 24)}, {wantOf(1, makeReq("b", topNumber), ""), untold(400)}, {wantOf(2, askReq("c"), ""), untold(404)}, {wantOf(2, askReq("a"), ""), telling(200, 24)},
		{wantOf(3, doneReq("d", sumOf("xyz")), ""), untold(200)}, {wantOf(3, doneReq("d", 7), ""), untold(422)}, {wantOf(4, doneReq("e", sumOf("")), ""), untold(200)}, {wantOf(4, readReq("e"), ""), telling(200, 0)}, {wantOf(5, dropReq("e"), ""), untold(204)},
	} {
		w := base
		w.Asks = []impl.Want{x.ask}
		got := checkDo(t, w, serving(0))
		if len(got.Asks) != 0 || got.Sv.Held[13] != heldFor(x.ask.Who, x.resp) || !slices.Equal(got.Busy, w.Busy) || !slices.Equal(got.Best, w.Best) || !slices.EqualFunc(got.Cls, w.Cls, sameClient) {
			t.Errorf("%+v: (%s)", x.ask, worldTitle(got))
		}
	}
	// Without room on the disk it is served all the same.
	w := atRest(serverOf(storeBy(1, 0, makeRec("a", 30))), sixClients()[0])
	w.Asks = []impl.Want{wantOf(0, sendReq("a", 0), "x")}
	if got := checkDo(t, w, serving(0)); got.Sv.Held[0].R != untold(507) {
		t.Errorf("on a full disk: (%s)", worldTitle(got))
	}
}

func TestServeOfWhatTheServerRefuses(t *testing.T) {
	for _, count := range []int{0, 60, 61, 198, 199, 200} {
		w := crowded()
		w.Sv.Held = manyTells(count, 6)
		for _, at := range []int{0, 7, 19} {
			got := checkDone(t, w, serving(at), count < 200)
			if count == 199 {
				checkNoDo(t, got, serving(0), serving(18))
			}
		}
		if count == 200 {
			// What is cut away makes room.
			checkDo(t, checkDo(t, w, cutting(3)), serving(0))
		}
	}
}

func TestSync(t *testing.T) {
	w := crowded()
	got := checkDo(t, w, syncing())
	if !slices.Equal(got.Tells, slices.Concat(w.Tells, w.Sv.Held)) || len(got.Sv.Held) != 0 || !slices.Equal(got.Sv.St.Disk.Sure, w.Sv.St.Disk.Now) || !slices.EqualFunc(got.Asks, w.Asks, sameWant) {
		t.Errorf("synced: (%s)", worldTitle(got))
	}
	// Where nothing waits, it makes sure what there is, and nothing comes on its way.
	again := checkDo(t, got, syncing())
	if !sameWorld(again, got) {
		t.Errorf("synced again: (%s)", worldTitle(again))
	}
	quiet := crowded()
	quiet.Sv.Held = nil
	got = checkDo(t, quiet, syncing())
	if !slices.Equal(got.Tells, quiet.Tells) || !slices.Equal(got.Sv.St.Disk.Sure, quiet.Sv.St.Disk.Now) || slices.Equal(quiet.Sv.St.Disk.Sure, quiet.Sv.St.Disk.Now) {
		t.Errorf("synced where nothing waits: (%s)", worldTitle(got))
	}
	checkDo(t, impl.World{}, syncing())
}

func TestSyncByWhatWouldBeOnItsWay(t *testing.T) {
	for _, x := range []struct{ tells, held int }{
		{0, 0}, {0, 1}, {0, 59}, {0, 60}, {0, 61}, {0, 200}, {1, 58}, {1, 59}, {1, 60}, {30, 29}, {30, 30}, {30, 31}, {58, 1}, {58, 2}, {58, 3}, {59, 0}, {59, 1}, {59, 2}, {60, 0}, {60, 1}, {60, 200},
	} {
		w := crowded()
		w.Tells, w.Sv.Held = manyTells(x.tells, 6), manyTells(x.held, 6)
		got := checkDone(t, w, syncing(), x.tells+x.held <= 60)
		if x.tells+x.held > 60 && slices.Equal(got.Sv.St.Disk.Sure, got.Sv.St.Disk.Now) {
			t.Errorf("%d and %d: it is refused, and all is sure", x.tells, x.held)
		}
		if x.tells+x.held == 61 && x.tells > 0 {
			checkDo(t, checkDo(t, w, tellingAt(0)), syncing())
		}
	}
	// Requests do not count.
	w := crowded()
	w.Asks, w.Tells, w.Sv.Held = manyAsks(60, 6), manyTells(30, 6), manyTells(30, 6)
	checkDo(t, w, syncing())
}

func TestTell(t *testing.T) {
	w := crowded()
	for at, h := range w.Tells {
		got := checkDo(t, w, tellingAt(at))
		rest := slices.Concat(w.Tells[:at], w.Tells[at+1:])
		if !slices.Equal(got.Tells, rest) || got.Busy[h.Who] || !sameServer(got.Sv, w.Sv) || !slices.EqualFunc(got.Asks, w.Asks, sameWant) {
			t.Errorf("told at %d: (%s)", at, worldTitle(got))
		}
		for who := range w.Cls {
			if who != h.Who && (!sameClient(got.Cls[who], w.Cls[who]) || got.Busy[who] != w.Busy[who] || got.Best[who] != w.Best[who]) {
				t.Errorf("told at %d: the client %d is another: (%s)", at, who, worldTitle(got))
			}
		}
	}
	// To one that is busy, the first that is told is heard alone.
	w.Tells = []impl.Held{heldFor(0, telling(204, 26)), heldFor(0, telling(204, 30)), heldFor(0, telling(204, 28))}
	w = checkDo(t, w, tellingAt(1))
	if w.Cls[0].Step != impl.ClSum || w.Best[0] != 30 || w.Busy[0] {
		t.Errorf("told: (%s)", worldTitle(w))
	}
	next := checkDo(t, checkDo(t, w, tellingAt(1)), tellingAt(0))
	if !sameClient(next.Cls[0], w.Cls[0]) || next.Best[0] != 30 || len(next.Tells) != 0 {
		t.Errorf("told what is not heard: (%s)", worldTitle(next))
	}
}

// A client that is told, busy or not, an Off below Best, Best itself, more, and none.
func TestTellByBest(t *testing.T) {
	for _, best := range []int{-1, 0, 10, 30, topNumber - 1, topNumber} {
		for _, off := range []int{-1, 0, 1, best - 1, best, best + 1, 24, 30, 31, 400, topNumber} {
			if off < -1 || off > topNumber {
				continue
			}
			for _, status := range []int{200, 201, 204, 404, 409, 422, 507, 599} {
				for step := impl.ClMake; step <= impl.ClFail; step++ {
					for _, busy := range []bool{true, false} {
						w := atRest(impl.ServerNew(2), clientOf("b", "x", impl.ClMake, 0), clientOf("a", longSector(30), step, 5))
						w.Busy[1], w.Best[1] = busy, best
						w.Tells = []impl.Held{heldFor(1, telling(status, off))}
						got := checkDo(t, w, tellingAt(0))
						want := best
						if busy {
							want = max(best, off)
						}
						if got.Best[1] != want || got.Best[0] != -1 || got.Busy[1] || len(got.Tells) != 0 {
							t.Errorf("best %d, told %d %d, busy %v: (%s)", best, status, off, busy, worldTitle(got))
						}
						if !busy && !sameClient(got.Cls[1], w.Cls[1]) {
							t.Errorf("told %d %d, not busy: (%s)", status, off, worldTitle(got))
						}
					}
				}
			}
		}
	}
}

// checkTaken asks: nothing of this client is on its way or waits, it is cut off, and all of the others is as it was, in order.
func checkTaken(t *testing.T, w impl.World, who int) {
	t.Helper()
	got := checkDo(t, w, cutting(who))
	asks, tells, held := got.Asks, got.Tells, got.Sv.Held
	for _, a := range w.Asks {
		if a.Who != who && (len(asks) == 0 || !sameWant(asks[0], a)) {
			t.Errorf("cut %d: of (%s), requests: (%s)", who, worldTitle(w), worldTitle(got))
			return
		}
		if a.Who != who {
			asks = asks[1:]
		}
	}
	for _, x := range []struct{ was, left []impl.Held }{{w.Tells, tells}, {w.Sv.Held, held}} {
		for _, h := range x.was {
			if h.Who != who && (len(x.left) == 0 || x.left[0] != h) {
				t.Errorf("cut %d: of (%s), answers: (%s)", who, worldTitle(w), worldTitle(got))
				return
			}
			if h.Who != who {
				x.left = x.left[1:]
			}
		}
		if len(x.left) != 0 {
			t.Errorf("cut %d: of (%s), %d answers too many", who, worldTitle(w), len(x.left))
		}
	}
	if len(asks) != 0 || got.Busy[who] || !sameClient(got.Cls[who], docCut(w.Cls[who])) || !slices.Equal(got.Best, w.Best) || !sameStore(got.Sv.St, w.Sv.St) {
		t.Errorf("cut %d: of (%s): (%s)", who, worldTitle(w), worldTitle(got))
	}
	for other := range w.Cls {
		if other != who && (!sameClient(got.Cls[other], w.Cls[other]) || got.Busy[other] != w.Busy[other]) {
			t.Errorf("cut %d: the client %d is another: (%s)", who, other, worldTitle(got))
		}
	}
}

func TestCut(t *testing.T) {
	for who := range 6 {
		checkTaken(t, crowded(), who)
		for _, counts := range [][3]int{{0, 0, 0}, {1, 0, 0}, {0, 1, 0}, {0, 0, 1}, {60, 0, 0}, {0, 60, 0}, {0, 0, 200}, {60, 60, 200}, {7, 6, 5}} {
			w := crowded()
			w.Asks, w.Tells, w.Sv.Held = manyAsks(counts[0], 6), manyTells(counts[1], 6), manyTells(counts[2], 6)
			checkTaken(t, w, who)
			// All of them this client's, and none.
			for i := range w.Asks {
				w.Asks[i].Who = who
			}
			for i := range w.Tells {
				w.Tells[i].Who = who
			}
			for i := range w.Sv.Held {
				w.Sv.Held[i].Who = who
			}
			checkTaken(t, w, who)
			checkTaken(t, w, (who+1)%6)
		}
		// At each Step, busy and not: who is done or failed stays so, and is busy no more.
		for step := impl.ClMake; step <= impl.ClFail; step++ {
			for _, busy := range []bool{true, false} {
				w := crowded()
				w.Cls[who].Step, w.Busy[who] = step, busy
				checkTaken(t, w, who)
				got := checkDo(t, w, cutting(who))
				again := checkDo(t, got, cutting(who))
				if !sameWorld(again, got) {
					t.Errorf("cut %d again: (%s)", who, worldTitle(again))
				}
				checkDone(t, got, sending(who), step < impl.ClDone)
			}
		}
	}
}

// What the server did stays done: who is cut asks how far it came, and goes on from there.
func TestWhoIsCutGoesOn(t *testing.T) {
	w := impl.WorldNew(20, []impl.Client{impl.ClientNew("a", []byte(longSector(60)))})
	for _, e := range []impl.Event{sending(0), serving(0), syncing(), tellingAt(0), sending(0), serving(0)} {
		w = checkDo(t, w, e)
	}
	// The answer waits, then it is on its way: it is cut away in both.
	for _, l := range [][]impl.Event{{cutting(0)}, {syncing(), cutting(0)}} {
		got := w
		for _, e := range append(slices.Clone(l), sending(0), serving(0), syncing(), tellingAt(0)) {
			got = checkDo(t, got, e)
		}
		if !sameClient(got.Cls[0], clientOf("a", longSector(60), impl.ClSend, 24)) || got.Best[0] != 24 {
			t.Errorf("behind a cut: (%s)", worldTitle(got))
		}
	}
	// A request that is cut away is never served.
	lost := checkDo(t, checkDo(t, checkDo(t, w, cutting(0)), sending(0)), cutting(0))
	if len(lost.Asks) != 0 || lost.Busy[0] || lost.Best[0] != 0 {
		t.Errorf("cut twice: (%s)", worldTitle(lost))
	}
	checkNoDo(t, lost, serving(0), tellingAt(0))
}

func TestCrash(t *testing.T) {
	for _, base := range []impl.World{crowded(), impl.WorldNew(30, sixClients()), {}} {
		for _, kept := range [][]bool{nil, {}, allKept(30), make([]bool, 30), keptBy("yyy"), keptBy("yyyy"), keptBy("nnny"), keptBy("nnnyy"), keptBy("nnnnyy"), allKept(29), allKept(31), make([]bool, 31), allKept(1000)} {
			got := checkDo(t, base, crashing(kept...))
			if len(got.Asks) != 0 || len(got.Tells) != 0 || len(got.Sv.Held) != 0 || slices.Contains(got.Busy, true) || !slices.Equal(got.Best, base.Best) {
				t.Errorf("crash, %s: (%s)", keptTitle(kept), worldTitle(got))
			}
			for who, c := range got.Cls {
				if !sameClient(c, docCut(base.Cls[who])) {
					t.Errorf("crash, %s: the client %d is (%s)", keptTitle(kept), who, clientTitle(c))
				}
				checkDone(t, got, sending(who), c.Step < impl.ClDone)
			}
		}
	}
	all := crowded()
	for mix := range 1 << 7 {
		kept := make([]bool, 30)
		for i := range 7 {
			kept[i] = mix>>i&1 == 1
		}
		checkDo(t, all, crashing(kept...))
	}
	all.Busy = allKept(6)
	got := checkDo(t, all, crashing())
	if slices.Contains(got.Busy, true) {
		t.Errorf("crash: (%s)", worldTitle(got))
	}
}

// Where the server does not open, nothing is changed: not who is busy, nor what is on its way.
func TestCrashThatIsRefused(t *testing.T) {
	w := crowded()
	w.Sv.St = storeBy(5, 10000, makeRec("a", 30))
	checkNoDo(t, w, crashing(true), crashing(allKept(5)...), crashing(allKept(9)...))
	checkDo(t, w, crashing())
	checkDo(t, w, crashing(false, true, true))
	synced := checkDo(t, w, syncing())
	checkNoDo(t, synced, crashing(), crashing(true), crashing(make([]bool, 5)...))
	w.Sv.St = storeBy(5, 9999, makeRec("a", 30))
	checkDo(t, w, crashing(true))
	// Sectors that are sure and make no store.
	w.Sv.St = storeBy(4, 2, makeRec("a", 30), dataRec("a", 0, "xy"))
	w.Sv.St.Disk.Sure = append(onDisk(1, 0, recs(doneRec("q"))), "", "", "")
	checkNoDo(t, w, crashing(), crashing(false, true, true, true), crashing(make([]bool, 9)...))
	checkDo(t, w, crashing(true))
	// What may be refused between others is passed over.
	checkPlay(t, w, []impl.Event{sending(1), crashing(), serving(20), crashing(), syncing(), crashing()})
}

// Where nothing is cut all files arrive.
func TestFilesArriveInAWorld(t *testing.T) {
	files := []string{"", "hello", text24, longSector(25), longSector(60), longSector(400)}
	var cls []impl.Client
	for i, file := range files {
		cls = append(cls, impl.ClientNew(fmt.Sprint("u", i), []byte(file)))
	}
	w := checkNew(t, 60, cls...)
	round := func() []impl.Event {
		var l []impl.Event
		for i := range files {
			l = append(l, sending(i))
		}
		for range files {
			l = append(l, serving(0))
		}
		l = append(l, syncing())
		for range files {
			l = append(l, tellingAt(0))
		}
		return l
	}
	for range 21 {
		w = checkPlay(t, w, round())
	}
	for i, c := range w.Cls {
		checkArrived(t, fmt.Sprint("file ", i), w.Sv, c)
		if w.Best[i] != len(files[i]) || w.Busy[i] {
			t.Errorf("file %d: (%s)", i, worldTitle(w))
		}
	}
	if again := checkPlay(t, w, round()); !sameWorld(again, w) {
		t.Errorf("behind the end: (%s)", worldTitle(again))
	}
}

// turnsOf are so many events, of which each changes the world of two: who sends is cut, again and again.
func turnsOf(count int) []impl.Event {
	l := []impl.Event{sending(0), cutting(0), sending(1), serving(0), syncing(), tellingAt(0)}
	var out []impl.Event
	for i := range count {
		out = append(out, l[i%len(l)])
	}
	return out
}

func TestPlayByHowManyEvents(t *testing.T) {
	w := impl.WorldNew(200, []impl.Client{impl.ClientNew("a", []byte("hello")), impl.ClientNew("b", []byte(longSector(400)))})
	if got := checkPlay(t, w, nil); !sameWorld(got, w) {
		t.Errorf("Play of nothing: (%s)", worldTitle(got))
	}
	checkPlay(t, w, []impl.Event{})
	if got := checkPlay(t, w, turnsOf(1)); !sameWorld(got, checkDo(t, w, sending(0))) {
		t.Errorf("Play of one event: (%s)", worldTitle(got))
	}
	for _, count := range []int{2, 3, 6, 24, 100, 198, 199, 200, 201, 202, 206, 400, 456, 1000, 1 << 16} {
		checkPlay(t, w, turnsOf(count))
		checkPlay(t, crowded(), turnsOf(count))
	}
	// The 200th is done, the 201st is not; those that are refused count.
	for _, ahead := range []impl.Event{{}, {Kind: 7}, serving(0), tellingAt(-1), cutting(6)} {
		for count := 198; count <= 202; count++ {
			l := append(slices.Repeat([]impl.Event{ahead}, count), sending(1))
			got := checkPlay(t, w, l)
			if got.Busy[1] != (count < mostPlays) || (len(got.Asks) == 1) != (count < mostPlays) {
				t.Errorf("behind %d: (%s)", count, worldTitle(got))
			}
		}
	}
	// The last of 200 counts as well.
	for _, count := range []int{199, 200, 201} {
		got := checkPlay(t, w, slices.Repeat([]impl.Event{sending(0), cutting(0)}, 101)[:count])
		if got.Busy[0] != (count == 199) {
			t.Errorf("Play of %d: (%s)", count, worldTitle(got))
		}
	}
}

func TestPlayWithRefusedOnesBetween(t *testing.T) {
	good := []impl.Event{sending(1), serving(0), syncing(), tellingAt(0), sending(3), cutting(2), sending(2), serving(3), crashing(allKept(30)...), sending(0), serving(0)}
	bad := []impl.Event{{}, {Kind: 7}, sending(6), sending(-1), sending(4), sending(5), serving(60), serving(-1), tellingAt(60), tellingAt(-1), cutting(6), cutting(-1)}
	w := crowded()
	want := checkPlay(t, w, good)
	var mixed []impl.Event
	for i, e := range good {
		mixed = append(append(mixed, bad...), bad[i%len(bad)], e)
	}
	if got := checkPlay(t, w, mixed[:min(len(mixed), 200)]); !sameWorld(got, want) {
		t.Errorf("with refused ones between: (%s), not (%s)", worldTitle(got), worldTitle(want))
	}
	if got := checkPlay(t, w, bad); !sameWorld(got, w) {
		t.Errorf("of refused ones alone: (%s)", worldTitle(got))
	}
}

// world draws one that is right, by hand or by what is done in it; rarely much is on its way.
func (d *drawer) world() impl.World {
	clients := drawn(d, 1, 2, 3, 6, 6, d.draw(7))
	var cls []impl.Client
	for i := range clients {
		size := drawn(d, 0, 1, 24, 25, d.draw(90), d.draw(90), 400)
		c := impl.ClientNew(fmt.Sprint(drawn(d, "u", "a", "b"), i), d.bytes(size))
		if d.draw(3) == 0 {
			c.Step, c.Off = 1+d.draw(6), d.draw(size+1)
		}
		cls = append(cls, c)
	}
	w := atRest(impl.ServerNew(drawn(d, 0, 1, 5, 20, 40, 40, 60)), cls...)
	if clients == 0 || d.draw(3) != 0 {
		return w
	}
	for i := range cls {
		w.Busy[i], w.Best[i] = d.draw(2) == 0, drawn(d, -1, 0, d.draw(100), topNumber)
	}
	w.Asks, w.Tells = manyAsks(drawn(d, 0, d.draw(20), 58+d.draw(3)), clients), manyTells(drawn(d, 0, d.draw(20), 58+d.draw(3)), clients)
	w.Sv.Held = manyTells(drawn(d, 0, d.draw(20), d.draw(61), 198+d.draw(3)), clients)
	return w
}

// event draws one that comes to be mostly.
func (d *drawer) event(w impl.World) impl.Event {
	place := func(count int) int {
		if d.draw(8) == 0 || count == 0 {
			return drawn(d, -1, 0, count, count+1, d.word(), -d.word())
		}
		return d.draw(count)
	}
	switch d.draw(40) {
	case 0:
		return impl.Event{Kind: drawn(d, 0, 7, -1, d.word()), At: d.draw(6), Kept: d.kept(3)}
	case 1:
		return cutting(place(len(w.Cls)))
	case 2:
		kept := [][]bool{nil, allKept(60), allKept(w.Sv.St.Next), make([]bool, 40), d.kept(len(w.Sv.St.Disk.Now) + 2), d.kept(len(w.Sv.St.Disk.Now) + 2)}
		return crashing(drawn(d, kept...)...)
	}
	// Where nothing is on its way, mostly something is sent.
	switch rest := d.draw(8) == 0; {
	case (rest || len(w.Tells) > 0) && d.draw(2) == 0:
		return tellingAt(place(len(w.Tells)))
	case (rest || len(w.Sv.Held) > 0) && d.draw(2) == 0:
		return syncing()
	case (rest || len(w.Asks) > 0) && d.draw(2) == 0:
		return serving(place(len(w.Asks)))
	}
	return sending(place(len(w.Cls)))
}

// Drawn events, one behind the other, by the chapter's words.
func TestWorldsByTheChapter(t *testing.T) {
	d := drawer(1818)
	done := map[string]int{}
	for range 500 {
		w := d.world()
		checkWorldOk(t, "drawn", w, true)
		for range 60 {
			e := d.event(w)
			_, ok := docDo(w, e)
			done[fmt.Sprintf("%d %v", min(max(e.Kind, 0), 7), ok)]++
			w = checkDone(t, w, e, ok)
		}
		if t.Failed() {
			return
		}
	}
	for _, title := range []string{"0 false", "7 false", "1 true", "1 false", "2 true", "2 false", "3 true", "3 false", "4 true", "4 false", "5 true", "5 false", "6 true"} {
		if done[title] < 20 {
			t.Errorf("%s came %d times: %v", title, done[title], done)
		}
	}
}

// Promise 18: events one by one are as one play, and as some plays, one behind the other.
func TestEventsOneByOneAreAsOnePlay(t *testing.T) {
	d := drawer(181818)
	steps := map[int]int{}
	for round := range 300 {
		w := d.world()
		var l []impl.Event
		worlds := []impl.World{w}
		for range drawn(&d, 0, 1, 20, 60, 60, d.draw(201), 200) {
			e := d.event(worlds[len(l)])
			next, _ := impl.Do(worlds[len(l)], e)
			l, worlds = append(l, e), append(worlds, next)
		}
		checkPlay(t, w, l)
		for range 5 {
			count := d.draw(len(l) + 1)
			if got := impl.Play(w, l[:count]); !sameWorld(got, worlds[count]) {
				t.Errorf("round %d: Play of %d events: (%s), not (%s)", round, count, worldTitle(got), worldTitle(worlds[count]))
			}
			if got := impl.Play(worlds[count], l[count:]); !sameWorld(got, worlds[len(l)]) {
				t.Errorf("round %d: Play of the rest behind %d events: (%s), not (%s)", round, count, worldTitle(got), worldTitle(worlds[len(l)]))
			}
		}
		for _, c := range worlds[len(l)].Cls {
			steps[c.Step]++
		}
		if t.Failed() {
			return
		}
	}
	for step := impl.ClMake; step <= impl.ClDone; step++ {
		if steps[step] < 10 {
			t.Errorf("the step %d came %d times: %v", step, steps[step], steps)
		}
	}
}

// A roomyWorld is a world with spare room behind each of its lists, and all of the memory.
type roomyWorld struct {
	world  impl.World
	server roomyServer
	cls    []impl.Client
	files  []roomyClient
	busy   []bool
	asks   []impl.Want
	data   [][]byte
	tells  []impl.Held
	best   []int
}

func roomyWorldOf(w impl.World, spare int) roomyWorld {
	x := roomyWorld{server: roomyServerOf(w.Sv, spare)}
	for _, c := range w.Cls {
		f := roomyClientOf(c, spare)
		x.files, x.cls = append(x.files, f), append(x.cls, f.client)
	}
	x.cls = append(x.cls, slices.Repeat([]impl.Client{clientOf("spare", "", 1, 0)}, spare)...)
	for _, a := range w.Asks {
		var all []byte
		a.Data, all = roomy(string(a.Data), spare)
		x.asks, x.data = append(x.asks, a), append(x.data, all)
	}
	x.asks = append(x.asks, slices.Repeat([]impl.Want{wantOf(0, askReq("spare"), "")}, spare)...)
	x.tells = slices.Concat(w.Tells, slices.Repeat([]impl.Held{heldFor(0, telling(222, 7))}, spare))
	x.busy, x.best = slices.Concat(w.Busy, allKept(spare)), slices.Concat(w.Best, slices.Repeat([]int{77}, spare))
	x.world = impl.World{
		Sv: x.server.server, Cls: x.cls[:len(w.Cls)], Busy: x.busy[:len(w.Busy)], Asks: x.asks[:len(w.Asks)], Tells: x.tells[:len(w.Tells)], Best: x.best[:len(w.Best)],
	}
	return x
}

func (x roomyWorld) sameAs(y roomyWorld) bool {
	files := slices.EqualFunc(x.files, y.files, roomyClient.sameAs) && slices.EqualFunc(x.data, y.data, slices.Equal)
	lists := slices.EqualFunc(x.cls, y.cls, sameClient) && slices.Equal(x.busy, y.busy) && slices.EqualFunc(x.asks, y.asks, sameWant)
	return x.server.sameAs(y.server) && files && lists && slices.Equal(x.tells, y.tells) && slices.Equal(x.best, y.best)
}

func (x roomyWorld) turn() {
	for _, turn := range worldParts(impl.World{Sv: impl.Server{St: x.server.server.St, Held: x.server.held}, Cls: x.cls, Busy: x.busy, Asks: x.asks, Tells: x.tells, Best: x.best}) {
		turn()
	}
}

func cloneWorld(w impl.World) impl.World {
	return roomyWorldOf(w, 0).world
}

// turnClients changes all but the bytes of each file.
func turnClients(l []impl.Client) {
	l = l[:cap(l)]
	for i := range l {
		l[i] = impl.Client{Id: l[i].Id + "turned", File: l[i].File, Step: l[i].Step + 1, Off: l[i].Off + 1}
	}
}

// turnWants changes all but the bytes of each Data.
func turnWants(l []impl.Want) {
	l = l[:cap(l)]
	for i := range l {
		l[i] = impl.Want{Who: l[i].Who + 1, R: impl.Req{Op: l[i].R.Op + 1, Id: l[i].R.Id + "turned", N: l[i].R.N + 1}, Data: l[i].Data}
	}
}

func turnFlags(l []bool) {
	l = l[:cap(l)]
	for i := range l {
		l[i] = !l[i]
	}
}

func turnNumbers(l []int) {
	l = l[:cap(l)]
	for i := range l {
		l[i]++
	}
}

// worldParts change each list of a world by itself, its spare room, too.
func worldParts(w impl.World) []func() {
	l := given{server: w.Sv}.parts()
	for _, c := range w.Cls {
		l = append(l, func() { turnAll(c.File) })
	}
	for _, a := range w.Asks {
		l = append(l, func() { turnAll(a.Data) })
	}
	return append(l, func() { turnClients(w.Cls) }, func() { turnFlags(w.Busy) }, func() { turnWants(w.Asks) }, func() { turnHeld(w.Tells) }, func() { turnNumbers(w.Best) })
}

// A worldAnswer is what a call answers.
type worldAnswer struct {
	world impl.World
	ok    bool
}

func (a worldAnswer) same(b worldAnswer) bool {
	return sameWorld(a.world, b.world) && a.ok == b.ok
}

func (a worldAnswer) clone() worldAnswer {
	return worldAnswer{cloneWorld(a.world), a.ok}
}

func (a worldAnswer) turn() {
	for _, turn := range worldParts(a.world) {
		turn()
	}
}

// grow appends to each list of an answer, which must be seen in none of them.
func (a worldAnswer) grow() {
	given{server: a.world.Sv}.grow()
	for _, c := range a.world.Cls {
		_ = append(c.File, strings.Repeat("more", 30)...)
	}
	for _, x := range a.world.Asks {
		_ = append(x.Data, strings.Repeat("more", 30)...)
	}
	_ = append(a.world.Cls, sixClients()...)
	_ = append(a.world.Busy, allKept(9)...)
	_ = append(a.world.Asks, manyAsks(9, 3)...)
	_ = append(a.world.Tells, manyTells(9, 3)...)
	_ = append(a.world.Best, 1, 2, 3, 4, 5)
}

// A worldCall answers a world.
type worldCall func(impl.World) worldAnswer

func worldCalls() map[string]worldCall {
	calls := map[string]worldCall{}
	for _, n := range []int{3, -1} {
		calls[fmt.Sprint("WorldNew ", n)] = func(w impl.World) worldAnswer { return worldAnswer{world: impl.WorldNew(n, w.Cls)} }
	}
	for _, e := range []impl.Event{{}, sending(0), sending(1), sending(3), serving(0), serving(5), syncing(), tellingAt(0), tellingAt(4), cutting(0), cutting(5), crashing(), crashing(allKept(30)...)} {
		calls[eventTitle(e)] = func(w impl.World) worldAnswer {
			next, ok := impl.Do(w, e)
			return worldAnswer{next, ok}
		}
	}
	for i, l := range [][]impl.Event{nil, eachEvent(), {sending(1), sending(3), serving(0), cutting(2), tellingAt(3), syncing(), {Kind: 7}, sending(2), serving(19)}} {
		calls[fmt.Sprint("Play ", i)] = func(w impl.World) worldAnswer { return worldAnswer{world: impl.Play(w, l)} }
	}
	return calls
}

func checkMemoryOfCalls(t *testing.T, worlds []impl.World, calls map[string]worldCall) {
	t.Helper()
	for _, w := range worlds {
		for name, call := range calls {
			for _, spare := range []int{0, 1, 30} {
				title := fmt.Sprintf("%s of (%s) with %d spare", name, worldTitle(w), spare)
				argument := func() roomyWorld { return roomyWorldOf(w, spare) }
				checkMemory(t, title, argument, func(x roomyWorld) worldAnswer { return call(x.world) }, call(cloneWorld(w)).clone())
			}
		}
	}
}

func TestMemoryOfWorlds(t *testing.T) {
	checkMemoryOfCalls(t, fewChanged(37), worldCalls())
}

// checkPartsApart changes each part of an answer by itself: the others are as they were.
func checkPartsApart(t *testing.T, worlds []impl.World, calls map[string]worldCall) {
	t.Helper()
	for _, w := range worlds {
		for name, call := range calls {
			want := call(cloneWorld(w)).clone()
			for at := range worldParts(want.world) {
				got, apart := call(cloneWorld(w)), want.clone()
				worldParts(got.world)[at]()
				worldParts(apart.world)[at]()
				if !got.same(apart) {
					t.Fatalf("%s of (%s): the part %d of the answer shares memory with another", name, worldTitle(w), at)
				}
			}
		}
	}
}

func TestPartsOfAWorldAreApart(t *testing.T) {
	checkPartsApart(t, fewChanged(301), worldCalls())
}

// oneMemory has lists of one kind that lie in one memory: files and Data, both lists of the disk, answers on their way and those that wait.
func oneMemory(w impl.World) impl.World {
	file := []byte(longSector(400))
	for i := range w.Cls {
		w.Cls[i].File = file[:len(w.Cls[i].File)]
	}
	for i := range w.Asks {
		w.Asks[i].Data = file[:len(w.Asks[i].Data)]
	}
	w.Sv.St.Disk.Sure = w.Sv.St.Disk.Now
	w.Sv.Held = w.Tells[:len(w.Sv.Held)]
	return w
}

func checkOneMemory(t *testing.T, calls map[string]worldCall) {
	t.Helper()
	for name, call := range calls {
		w := oneMemory(crowded())
		want := call(cloneWorld(w)).clone()
		kept := cloneWorld(w)
		got := call(w)
		if !got.same(want) || !sameWorld(w, kept) {
			t.Fatalf("%s of one memory: (%s), not (%s)", name, worldTitle(got.world), worldTitle(want.world))
		}
		for at := range worldParts(want.world) {
			got, apart := call(w), want.clone()
			worldParts(got.world)[at]()
			worldParts(apart.world)[at]()
			if !got.same(apart) || !sameWorld(w, kept) {
				t.Fatalf("%s of one memory: the part %d of the answer shares memory", name, at)
			}
		}
	}
}

func TestWorldsInOneMemory(t *testing.T) {
	checkOneMemory(t, worldCalls())
}

func TestWorldOkLeavesTheWorldAlone(t *testing.T) {
	for _, w := range fewChanged(5) {
		for _, spare := range []int{0, 1, 30, 70} {
			x, kept := roomyWorldOf(w, spare), roomyWorldOf(w, spare)
			if impl.WorldOk(x.world) != docWorldOk(w) || !x.sameAs(kept) {
				t.Errorf("WorldOk of (%s) with %d spare", worldTitle(w), spare)
			}
		}
	}
}

// What a crash keeps is neither written nor kept, and what lies behind it is not read; so it is with a list of events.
func TestMemoryOfEvents(t *testing.T) {
	w := crowded()
	for count := range 10 {
		all := allKept(40)
		for i := range count {
			all[i] = i%2 == 0
		}
		was := slices.Clone(all)
		got := checkDo(t, w, crashing(all[:count]...))
		want := cloneWorld(got)
		turnFlags(all)
		turned := slices.Clone(all)
		if !sameWorld(got, want) {
			t.Errorf("a crash, %s: they are shared", keptTitle(was[:count]))
		}
		worldAnswer{world: got}.turn()
		if !slices.Equal(all, turned) {
			t.Errorf("a crash, %s: the answer shares them", keptTitle(was[:count]))
		}
	}
	for count := range 9 {
		all := append(turnsOf(count), slices.Repeat([]impl.Event{crashing(allKept(5)...), cutting(0)}, 3)...)
		was := slices.Clone(all)
		got := impl.Play(w, all[:count])
		if !sameWorld(got, impl.Play(w, turnsOf(count))) {
			t.Errorf("Play of %d events with spare room: (%s)", count, worldTitle(got))
		}
		worldAnswer{world: got}.turn()
		for i, e := range all {
			if e.Kind != was[i].Kind || e.At != was[i].At || !slices.Equal(e.Kept, was[i].Kept) {
				t.Errorf("Play of %d events: the event %d is written", count, i)
			}
		}
	}
}

// checkAlikeAgain asks whether a call keeps anything: what is done to one answer is not seen in the next, and behind a refusal all is as ahead of it.
func checkAlikeAgain(t *testing.T, worlds []impl.World, calls map[string]worldCall) {
	t.Helper()
	for _, w := range worlds {
		for name, call := range calls {
			one, two := call(w), call(w)
			one.turn()
			checkNoDo(t, w, impl.Event{Kind: 9})
			if three := call(w); !two.same(three) {
				t.Errorf("%s of (%s) hangs on the call ahead", name, worldTitle(w))
			}
		}
	}
}

func TestWorldsAnswerAlikeAgain(t *testing.T) {
	checkAlikeAgain(t, fewChanged(23), worldCalls())
}
