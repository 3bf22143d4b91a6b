package tests

import (
	"fmt"
	"slices"
	"strings"
	"testing"

	"loop.example/g00199/impl"
)

const mostRounds = 100

// docRound goes through the chapter's words: a loop ends where nothing comes to be any more.
func docRound(w impl.World) impl.World {
	if !docWorldOk(w) {
		return w
	}
	next := cloneWorld(w)
	for range 2 {
		for len(next.Asks) > 0 && docServes(&next, 0) {
		}
		docSyncs(&next)
		for len(next.Tells) > 0 && docTells(&next, 0) {
		}
		for at := range next.Cls {
			docSends(&next, at)
		}
	}
	return next
}

func docSettle(w impl.World, n int) impl.World {
	if n < 0 || n > 100 {
		return w
	}
	for range n {
		w = docRound(w)
	}
	return w
}

// roundByEvents is a round of the events one by one, and those of them that came to be.
func roundByEvents(w impl.World) (impl.World, []impl.Event) {
	var l []impl.Event
	does := func(e impl.Event) bool {
		next, ok := impl.Do(w, e)
		if w = next; ok {
			l = append(l, e)
		}
		return ok
	}
	for range 2 {
		for len(w.Asks) > 0 && does(serving(0)) {
		}
		does(syncing())
		for len(w.Tells) > 0 && does(tellingAt(0)) {
		}
		for at := range w.Cls {
			does(sending(at))
		}
	}
	return w, l
}

func checkRound(t *testing.T, title string, w impl.World) impl.World {
	t.Helper()
	got, want := impl.Round(w), docRound(w)
	if !sameWorld(got, want) {
		t.Errorf("%s: Round of (%s): (%s), not (%s)", title, worldTitle(w), worldTitle(got), worldTitle(want))
	}
	byEvents, l := roundByEvents(w)
	if !sameWorld(got, byEvents) {
		t.Errorf("%s: Round of (%s): (%s), and by events one by one (%s)", title, worldTitle(w), worldTitle(got), worldTitle(byEvents))
	}
	if len(l) <= mostPlays && !sameWorld(got, impl.Play(w, l)) {
		t.Errorf("%s: Round of (%s): (%s) is not Play of its %d events", title, worldTitle(w), worldTitle(got), len(l))
	}
	if impl.WorldOk(got) != impl.WorldOk(w) {
		t.Errorf("%s: Round of (%s): (%s), WorldOk no longer is as it was", title, worldTitle(w), worldTitle(got))
	}
	return got
}

func checkSettle(t *testing.T, title string, w impl.World, n int) impl.World {
	t.Helper()
	got, want := impl.Settle(w, n), docSettle(w, n)
	if !sameWorld(got, want) {
		t.Errorf("%s: Settle of (%s), %d rounds: (%s), not (%s)", title, worldTitle(w), n, worldTitle(got), worldTitle(want))
	}
	return got
}

// checkNoRound asks for the world as it was, however often it is to go round.
func checkNoRound(t *testing.T, title string, w impl.World) {
	t.Helper()
	if got := checkRound(t, title, w); !sameWorld(got, w) {
		t.Errorf("%s: Round of (%s): (%s)", title, worldTitle(w), worldTitle(got))
	}
	for _, n := range []int{-1, 0, 1, 2, mostRounds, mostRounds + 1} {
		if got := checkSettle(t, title, w, n); !sameWorld(got, w) {
			t.Errorf("%s: Settle of (%s), %d rounds: (%s)", title, worldTitle(w), n, worldTitle(got))
		}
	}
}

// Each half of a round by itself is not to be seen, so this goes by what each round leaves behind.
func TestRoundOfOneClient(t *testing.T) {
	w := impl.WorldNew(20, []impl.Client{impl.ClientNew("a", []byte(text30))})
	behindEach := []struct {
		step, off, best int
		wants           []impl.Want
		there           string
		done            bool
	}{
		{impl.ClSend, 0, 0, []impl.Want{wantOf(0, sendReq("a", 0), text24)}, "", false},
		{impl.ClSum, 30, 30, []impl.Want{wantOf(0, doneReq("a", sumOf(text30)), "")}, text30, false},
		{impl.ClDone, 30, 30, nil, text30, true},
		{impl.ClDone, 30, 30, nil, text30, true},
	}
	for i, x := range behindEach {
		w = checkRound(t, fmt.Sprint("round ", i+1), w)
		c := clientOf("a", text30, x.step, x.off)
		if !sameClient(w.Cls[0], c) || w.Best[0] != x.best || w.Busy[0] != (x.wants != nil) || !slices.EqualFunc(w.Asks, x.wants, sameWant) {
			t.Errorf("behind round %d: (%s)", i+1, worldTitle(w))
		}
		u, there := docUp(w, c)
		if !there || string(u.Data) != x.there || u.Done != x.done || len(w.Tells) > 0 || len(w.Sv.Held) > 0 || !slices.Equal(w.Sv.St.Disk.Now, w.Sv.St.Disk.Sure) {
			t.Errorf("behind round %d: (%s)", i+1, worldTitle(w))
		}
	}
}

// What is on its way at the beginning goes first, and what then is sent stands behind the whole round.
func TestRoundKeepsItsOrder(t *testing.T) {
	first := impl.WorldNew(40, []impl.Client{clientOf("b", "hello", impl.ClMake, 0), clientOf("a", "", impl.ClMake, 0), clientOf("c", text30, impl.ClAsk, 0)})
	w := checkRound(t, "three clients", first)
	want := []impl.Want{wantOf(0, sendReq("b", 0), "hello"), wantOf(1, doneReq("a", sumOf("")), ""), wantOf(2, makeReq("c", 30), "")}
	if !slices.EqualFunc(w.Asks, want, sameWant) || !slices.Equal(w.Busy, []bool{true, true, true}) || !slices.Equal(w.Best, []int{0, 0, -1}) {
		t.Errorf("three clients: (%s)", worldTitle(w))
	}
	for count := range len(roundEvents()) + 1 {
		checkRound(t, fmt.Sprint("behind ", count, " events"), impl.Play(first, roundEvents()[:count]))
	}
	// An answer that is on its way at the beginning is heard in the first half, ahead of those that then are served.
	w = impl.Play(first, []impl.Event{sending(0), sending(1), serving(1), syncing(), serving(0)})
	got := checkRound(t, "an answer on its way, one that waits", w)
	if !slices.EqualFunc(got.Asks, []impl.Want{wantOf(0, doneReq("b", sumOf("hello")), ""), wantOf(2, makeReq("c", 30), "")}, sameWant) || got.Cls[1].Step != impl.ClDone {
		t.Errorf("an answer on its way, one that waits: (%s)", worldTitle(got))
	}
	// Of two answers to one client the first is heard alone.
	w = atRest(impl.ServerNew(9), clientOf("a", "hello", impl.ClAsk, 0))
	w.Busy[0], w.Tells, w.Sv.Held = true, []impl.Held{heldFor(0, telling(200, 3))}, []impl.Held{heldFor(0, telling(200, 4))}
	got = checkRound(t, "two answers", w)
	if got.Best[0] != 3 || got.Cls[0].Step != impl.ClMake || !slices.EqualFunc(got.Asks, []impl.Want{wantOf(0, makeReq("a", 5), "")}, sameWant) {
		t.Errorf("two answers: (%s)", worldTitle(got))
	}
}

func roundEvents() []impl.Event {
	return []impl.Event{
		sending(0), sending(2), serving(1), syncing(), sending(1), serving(1), serving(0), tellingAt(0), sending(2), syncing(), serving(0), tellingAt(1), tellingAt(0), sending(0),
		sending(1), cutting(2), serving(1), crashing(allKept(40)...), sending(1), sending(0), serving(0), syncing(), serving(0), crashing(), sending(2), serving(0), syncing(),
	}
}

// Who is done, fails, or waits for what is not on its way sends nothing.
func TestRoundOfThoseThatSendNothing(t *testing.T) {
	done, failed := clientOf("e", "", impl.ClDone, 0), clientOf("f", "file", impl.ClFail, 2)
	w := atRest(impl.ServerNew(9), done, failed)
	checkNoRound(t, "at an end", w)
	for step := impl.ClMake; step <= impl.ClFail; step++ {
		c := clientOf("a", "hello", step, 2)
		waits := atRest(impl.ServerNew(9), c, done)
		waits.Busy[0] = true
		checkNoRound(t, fmt.Sprint("waits at step ", step), waits)
		// Another goes on meanwhile.
		waits = atRest(impl.ServerNew(9), clientOf("b", "hello", impl.ClMake, 0), c)
		waits.Busy[1] = true
		got := checkSettle(t, fmt.Sprint("waits at step ", step), waits, 3)
		if got.Cls[0].Step != impl.ClDone || !sameClient(got.Cls[1], c) || !got.Busy[1] || got.Best[1] != -1 {
			t.Errorf("waits at step %d: (%s)", step, worldTitle(got))
		}
		// An answer to who is not busy is gone unheard.
		unheard := atRest(impl.ServerNew(0), done, failed)
		unheard.Tells, unheard.Sv.Held = manyTells(30, 2), manyTells(30, 2)
		if got := checkRound(t, "unheard", unheard); len(got.Tells)+len(got.Sv.Held) > 0 || !slices.Equal(got.Best, []int{-1, -1}) {
			t.Errorf("unheard: (%s)", worldTitle(got))
		}
	}
}

// A server that is full, and one whose answers are too many to be on their way, end the loops: what there is stays.
func TestRoundOfAFullServer(t *testing.T) {
	for _, held := range []int{0, 1, 39, 40, 41, 43, 44, 59, 60, 61, 100, 140, 197, 198, 199, 200} {
		for _, asks := range []int{0, 1, 2, 3, 16, 17, 20, 21, 59, 60} {
			for _, tells := range []int{0, 1, 16, 20, 21, 59, 60} {
				w := crowded()
				w.Sv.Held, w.Asks, w.Tells = manyTells(held, 6), manyAsks(asks, 6), manyTells(tells, 6)
				title := fmt.Sprint(held, " wait, ", asks, " asks, ", tells, " tells")
				got := checkRound(t, title, w)
				if len(got.Tells) > 0 {
					t.Errorf("%s: behind a round %d answers are on their way", title, len(got.Tells))
				}
				// Where all requests were served, their answers stay, if they are too many.
				if held+asks > mostWait && len(got.Sv.Held) < min(held+asks, 200) {
					t.Errorf("%s: behind a round %d wait", title, len(got.Sv.Held))
				}
				if held+asks+tells <= mostWait && len(got.Sv.Held) > 0 {
					t.Errorf("%s: behind a round %d wait", title, len(got.Sv.Held))
				}
				if held == 200 && len(got.Asks) < asks {
					t.Errorf("%s: %d asks, though none is served", title, len(got.Asks))
				}
			}
		}
	}
	// For good: it is the same, however often it is to go round.
	w := crowded()
	w.Sv.Held, w.Asks = manyTells(200, 6), manyAsks(60, 6)
	w.Tells = nil
	checkNoRound(t, "full of all", w)
}

// Sixty requests are on their way: there is room behind them, once they are served.
func TestRoundOfManyRequests(t *testing.T) {
	w := atRest(impl.ServerNew(40), clientOf("a", text30, impl.ClMake, 0), clientOf("b", "hello", impl.ClMake, 0))
	for count := 57; count <= 60; count++ {
		w.Asks = slices.Repeat([]impl.Want{wantOf(1, askReq("nobody"), "")}, count)
		got := checkSettle(t, fmt.Sprint(count, " asks"), w, 4)
		if got.Cls[0].Step != impl.ClDone || got.Cls[1].Step != impl.ClDone {
			t.Errorf("%d asks: (%s)", count, worldTitle(got))
		}
	}
}

func TestRoundOfNoClients(t *testing.T) {
	checkNoRound(t, "the zero one", impl.World{})
	checkNoRound(t, "none", impl.WorldNew(40, nil))
	checkNoRound(t, "none, and no sector", impl.WorldNew(0, nil))
	// What is not sure yet is so behind a round, and behind no round it is not.
	st := storeBy(30, 2, makeRec("a", 30), dataRec("a", 0, text24))
	st.Disk.Sure = make([]string, 30)
	w := atRest(serverOf(st))
	want := cloneWorld(w)
	want.Sv.St.Disk.Sure = slices.Clone(st.Disk.Now)
	if got := checkRound(t, "not sure", w); !sameWorld(got, want) {
		t.Errorf("not sure: (%s)", worldTitle(got))
	}
	for n, sure := range map[int]bool{-1: false, 0: false, 1: true, 2: true, mostRounds: true, mostRounds + 1: false} {
		got := checkSettle(t, "not sure", w, n)
		if sameWorld(got, want) != sure || sameWorld(got, w) == sure {
			t.Errorf("not sure, %d rounds: (%s)", n, worldTitle(got))
		}
	}
}

func TestRoundOfWrongWorlds(t *testing.T) {
	wrong := 0
	for _, x := range changedWorlds() {
		if x.ok {
			checkRound(t, x.title, x.world)
			checkSettle(t, x.title, x.world, 2)
			continue
		}
		wrong++
		checkNoRound(t, x.title, x.world)
	}
	if wrong < 100 {
		t.Errorf("%d worlds were wrong", wrong)
	}
	// Short lists, with something to send for each client.
	for count := range 3 {
		w := impl.WorldNew(20, []impl.Client{impl.ClientNew("a", nil), impl.ClientNew("b", nil), impl.ClientNew("c", nil)})
		short := w
		short.Busy = w.Busy[:count]
		checkNoRound(t, "short Busy", short)
		short = w
		short.Best = w.Best[:count]
		checkNoRound(t, "short Best", short)
	}
}

func TestSettleCounts(t *testing.T) {
	file := strings.Repeat("0123456789", 40)
	first := impl.WorldNew(200, []impl.Client{impl.ClientNew("a", []byte(file)), impl.ClientNew("b", []byte(file[7:])), impl.ClientNew("c", nil)})
	w := first
	for n := range 12 {
		if got := checkSettle(t, "from WorldNew", first, n); !sameWorld(got, w) {
			t.Errorf("%d rounds: (%s), not (%s)", n, worldTitle(got), worldTitle(w))
		}
		w = checkRound(t, "from WorldNew", w)
	}
	// 400 bytes are 17 pieces, with OpMake and OpDone 19 answers, one in each half behind the first, that sends alone.
	if got := impl.Settle(first, 9); !sameClient(got.Cls[0], clientOf("a", file, impl.ClSend, 384)) {
		t.Errorf("behind 9 rounds: (%s)", worldTitle(got))
	}
	if got := impl.Settle(first, 10); got.Cls[0].Step != impl.ClDone || got.Cls[1].Step != impl.ClDone || got.Cls[2].Step != impl.ClDone {
		t.Errorf("behind 10 rounds: (%s)", worldTitle(got))
	}
	for _, n := range slices.Concat(greatNumbers, []int{-1, -2, -100, 101, 102, 200, 256, 1 << 32, 1<<32 + 1}) {
		for _, w := range []impl.World{first, crowded(), impl.Round(crowded())} {
			if n >= 0 && n <= mostRounds {
				continue
			}
			if got := checkSettle(t, "out of what is allowed", w, n); !sameWorld(got, w) {
				t.Errorf("%d rounds: (%s)", n, worldTitle(got))
			}
		}
	}
}

// A hundred rounds are as a round a hundred times, whether there is room for all files or for none.
func TestSettleGoesToAHundred(t *testing.T) {
	var cls []impl.Client
	for i := range 6 {
		cls = append(cls, impl.ClientNew(string(rune('a'+i)), []byte(longSector(400))))
	}
	for _, sectors := range []int{0, 1, 5, 50, 200} {
		first := impl.WorldNew(sectors, cls)
		w := first
		for range mostRounds - 1 {
			w = impl.Round(w)
		}
		title := fmt.Sprint(sectors, " sectors")
		if got := impl.Settle(first, mostRounds-1); !sameWorld(got, w) {
			t.Errorf("%s, 99 rounds: (%s), not (%s)", title, worldTitle(got), worldTitle(w))
		}
		w = checkRound(t, title, w)
		if got := checkSettle(t, title, first, mostRounds); !sameWorld(got, w) {
			t.Errorf("%s, 100 rounds: (%s), not (%s)", title, worldTitle(got), worldTitle(w))
		}
		if got := impl.Settle(first, mostRounds+1); !sameWorld(got, first) {
			t.Errorf("%s, 101 rounds: (%s)", title, worldTitle(got))
		}
	}
}

// Where the disk has no room, each stays at its step, and nothing that was told is lost.
func TestSettleOnAFullDisk(t *testing.T) {
	cls := []impl.Client{impl.ClientNew("a", []byte(text30)), impl.ClientNew("b", []byte("hello"))}
	for sectors := range 9 {
		w := checkSettle(t, fmt.Sprint(sectors, " sectors"), impl.WorldNew(sectors, cls), 8)
		all := w.Cls[0].Step == impl.ClDone && w.Cls[1].Step == impl.ClDone
		// OpMake, two pieces and OpDone of the one, OpMake, a piece and OpDone of the other, each a sector.
		if all != (sectors >= 7) || impl.Safe(w) != 0 || !slices.Equal(w.Busy, []bool{w.Cls[0].Step != impl.ClDone, w.Cls[1].Step != impl.ClDone}) {
			t.Errorf("%d sectors: (%s), Safe %d", sectors, worldTitle(w), impl.Safe(w))
		}
	}
}

// Drawn worlds and events, with a round now and then.
func TestRoundsByTheChapter(t *testing.T) {
	d := drawer(2020)
	rounds := 0
	for range 150 {
		w := d.world()
		for range 40 {
			if d.draw(6) == 0 {
				w = checkRound(t, "drawn", w)
				rounds++
				continue
			}
			w, _ = impl.Do(w, d.event(w))
		}
		checkSettle(t, "drawn", w, d.draw(6))
		if t.Failed() {
			return
		}
	}
	if rounds < 500 {
		t.Errorf("%d rounds", rounds)
	}
}

// Promise 19, with rounds among the events.
func TestSafeBehindRounds(t *testing.T) {
	d := drawer(201920)
	done := map[int]int{}
	for round := range 150 {
		w := d.beginning()
		for range drawn(&d, 30, 60, 120) {
			e := d.event(w)
			next, ok := impl.Do(w, e)
			if ok {
				done[e.Kind]++
			}
			if w = next; d.draw(9) == 0 {
				w = impl.Round(w)
			}
			checkRules(t, fmt.Sprint("round ", round, " behind ", eventTitle(e)), w)
		}
		for _, n := range []int{1, 5, 30} {
			checkRules(t, fmt.Sprint("round ", round, ", settled ", n), impl.Settle(w, n))
		}
		if t.Failed() {
			return
		}
	}
	for kind := impl.EvSend; kind <= impl.EvCrash; kind++ {
		if done[kind] < 50 {
			t.Errorf("the event %d was done %d times: %v", kind, done[kind], done)
		}
	}
}

// quietCalls are the calls that go round.
func quietCalls() map[string]worldCall {
	calls := map[string]worldCall{"Round": func(w impl.World) worldAnswer { return worldAnswer{world: impl.Round(w)} }}
	for _, n := range []int{-1, 0, 1, 2, mostRounds + 1} {
		calls[fmt.Sprint("Settle ", n)] = func(w impl.World) worldAnswer { return worldAnswer{world: impl.Settle(w, n)} }
	}
	return calls
}

func TestMemoryOfRounds(t *testing.T) {
	checkMemoryOfCalls(t, fewChanged(37), quietCalls())
	begun := impl.WorldNew(20, []impl.Client{impl.ClientNew("a", []byte(text30)), impl.ClientNew("b", []byte("hello"))})
	checkMemoryOfCalls(t, []impl.World{begun, impl.Round(begun)}, quietCalls())
	checkPartsApart(t, append(fewChanged(301), begun), quietCalls())
	checkOneMemory(t, quietCalls())
}

func TestRoundsAnswerAlikeAgain(t *testing.T) {
	checkAlikeAgain(t, fewChanged(23), quietCalls())
}
