package tests

import (
	"math"
	"slices"
	"testing"

	"loop.example/g00199/impl"
)

// docSteps are the answers of the document, a row a state (from 0 on), a letter an event (from 1 on):
// the first letter of the next state (Idle, Open, There, Here, Closed), `?` for StepBad, `!` for StepClosed.
var docSteps = []string{
	"OT???OH???",
	"?TOTCOHOHC",
	"!!!!CTCTCC",
	"?CHCC!!!!C",
	"!!!!C!!!!!",
}

const stateLetters = "IOTHC"

// docStep is what StreamStep must answer.
func docStep(state int, ev int) (int, int) {
	if state < 0 || state > 4 || ev < 1 || ev > 10 {
		return state, 1
	}
	switch letter := docSteps[state][ev-1]; letter {
	case '?':
		return state, 1
	case '!':
		return state, 2
	default:
		return slices.Index([]byte(stateLetters), letter), 0
	}
}

// docRun is what StreamRun must answer.
func docRun(evs []int) (int, int) {
	state := 0
	for i, ev := range evs {
		next, code := docStep(state, ev)
		if code != 0 {
			return state, i
		}
		state = next
	}
	return state, len(evs)
}

// noStates and noEvents are edges and great numbers; some are right ones when they are cut to fewer bits.
var noStates = []int{-1, 5, -2, -4, 6, 10, 11, 100, 255, 256, 257, 260, -256, 1 << 16, 1<<16 + 1, 1 << 31, 1 << 32, 1<<32 + 1, 1<<32 + 4, -1 << 31, -1 << 32, -1<<32 + 2, math.MaxInt, math.MaxInt - 1, math.MinInt, math.MinInt + 1, math.MinInt + 4}

var noEvents = []int{0, 11, -1, -2, -10, 12, 100, 255, 256, 257, 266, -255, 1 << 16, 1<<16 + 5, 1 << 31, 1 << 32, 1<<32 + 1, 1<<32 + 10, -1 << 31, -1 << 32, -1<<32 + 5, math.MaxInt, math.MaxInt - 1, math.MinInt, math.MinInt + 1, math.MinInt + 5, math.MinInt + 10}

func isReset(ev int) bool { return ev == impl.GotReset || ev == impl.PutReset }

func isGot(ev int) bool { return ev >= impl.GotHead && ev <= impl.GotReset }

func isPut(ev int) bool { return ev >= impl.PutHead && ev <= impl.PutReset }

func isEnd(ev int) bool {
	return ev == impl.GotHeadEnd || ev == impl.GotDataEnd || ev == impl.PutHeadEnd || ev == impl.PutDataEnd
}

func checkStep(t *testing.T, state int, ev int, next int, code int) {
	t.Helper()
	if n, c := impl.StreamStep(state, ev); n != next || c != code {
		t.Errorf("StreamStep of state %d, event %d: state %d, code %d, not %d, %d", state, ev, n, c, next, code)
	}
}

func checkRun(t *testing.T, evs []int, state int, place int) {
	t.Helper()
	if s, p := impl.StreamRun(evs); s != state || p != place {
		t.Errorf("StreamRun of %v: state %d, place %d, not %d, %d", evs, s, p, state, place)
	}
}

func TestConstantsOfStreams(t *testing.T) {
	states := []int{impl.StIdle, impl.StOpen, impl.StHalfThere, impl.StHalfHere, impl.StClosed}
	events := []int{impl.GotHead, impl.GotHeadEnd, impl.GotData, impl.GotDataEnd, impl.GotReset, impl.PutHead, impl.PutHeadEnd, impl.PutData, impl.PutDataEnd, impl.PutReset}
	codes := []int{impl.StepGood, impl.StepBad, impl.StepClosed}
	if !slices.Equal(states, []int{0, 1, 2, 3, 4}) || !slices.Equal(events, []int{1, 2, 3, 4, 5, 6, 7, 8, 9, 10}) || !slices.Equal(codes, []int{0, 1, 2}) {
		t.Errorf("the constants are %v, %v, %v", states, events, codes)
	}
}

func TestEachStateWithEachEvent(t *testing.T) {
	for state := range 5 {
		for ev := 1; ev <= 10; ev++ {
			next, code := docStep(state, ev)
			checkStep(t, state, ev, next, code)
		}
	}
}

// The chapter's own sentences, one by one.
func TestStepsInTheWordsOfTheChapter(t *testing.T) {
	for _, x := range []struct {
		state      int
		evs        []int
		next, code int
	}{
		{impl.StIdle, []int{impl.GotHead, impl.PutHead}, impl.StOpen, impl.StepGood},
		{impl.StIdle, []int{impl.GotHeadEnd}, impl.StHalfThere, impl.StepGood},
		{impl.StIdle, []int{impl.PutHeadEnd}, impl.StHalfHere, impl.StepGood},
		{impl.StIdle, []int{impl.GotData, impl.GotDataEnd, impl.GotReset, impl.PutData, impl.PutDataEnd, impl.PutReset}, impl.StIdle, impl.StepBad},
		{impl.StOpen, []int{impl.GotHeadEnd, impl.GotDataEnd}, impl.StHalfThere, impl.StepGood},
		{impl.StOpen, []int{impl.PutHeadEnd, impl.PutDataEnd}, impl.StHalfHere, impl.StepGood},
		{impl.StOpen, []int{impl.GotReset, impl.PutReset}, impl.StClosed, impl.StepGood},
		{impl.StOpen, []int{impl.GotHead}, impl.StOpen, impl.StepBad},
		{impl.StOpen, []int{impl.GotData, impl.PutHead, impl.PutData}, impl.StOpen, impl.StepGood},
		{impl.StHalfThere, []int{impl.PutHeadEnd, impl.PutDataEnd, impl.GotReset, impl.PutReset}, impl.StClosed, impl.StepGood},
		{impl.StHalfThere, []int{impl.PutHead, impl.PutData}, impl.StHalfThere, impl.StepGood},
		{impl.StHalfThere, []int{impl.GotHead, impl.GotHeadEnd, impl.GotData, impl.GotDataEnd}, impl.StHalfThere, impl.StepClosed},
		{impl.StHalfHere, []int{impl.GotHeadEnd, impl.GotDataEnd, impl.GotReset, impl.PutReset}, impl.StClosed, impl.StepGood},
		{impl.StHalfHere, []int{impl.GotData}, impl.StHalfHere, impl.StepGood},
		{impl.StHalfHere, []int{impl.GotHead}, impl.StHalfHere, impl.StepBad},
		{impl.StHalfHere, []int{impl.PutHead, impl.PutHeadEnd, impl.PutData, impl.PutDataEnd}, impl.StHalfHere, impl.StepClosed},
		{impl.StClosed, []int{impl.GotReset}, impl.StClosed, impl.StepGood},
		{impl.StClosed, []int{impl.GotHead, impl.GotHeadEnd, impl.GotData, impl.GotDataEnd, impl.PutHead, impl.PutHeadEnd, impl.PutData, impl.PutDataEnd, impl.PutReset}, impl.StClosed, impl.StepClosed},
	} {
		for _, ev := range x.evs {
			checkStep(t, x.state, ev, x.next, x.code)
		}
	}
}

// What is no state or no event is StepBad, ahead of all else: of StClosed, too.
func TestStepOfNoStateOrNoEvent(t *testing.T) {
	for _, state := range noStates {
		for ev := 1; ev <= 10; ev++ {
			checkStep(t, state, ev, state, impl.StepBad)
		}
		for _, ev := range noEvents {
			checkStep(t, state, ev, state, impl.StepBad)
		}
	}
	for state := range 5 {
		for _, ev := range noEvents {
			checkStep(t, state, ev, state, impl.StepBad)
		}
	}
}

// A good step leads to a state; one that is refused leaves the state as it was.
func TestStepsLeadToStates(t *testing.T) {
	for state := -20; state < 25; state++ {
		for ev := -20; ev < 30; ev++ {
			next, code := impl.StreamStep(state, ev)
			switch {
			case code == impl.StepGood && (next < 0 || next > 4 || state < 0 || state > 4 || ev < 1 || ev > 10):
				t.Errorf("state %d, event %d: state %d is good", state, ev, next)
			case code != impl.StepGood && next != state:
				t.Errorf("state %d, event %d: refused with %d, yet the state is %d", state, ev, code, next)
			case code < impl.StepGood || code > impl.StepClosed:
				t.Errorf("state %d, event %d: code %d", state, ev, code)
			}
		}
	}
}

// Who has ended puts, or is got from, no more, but for a reset; the other one goes on.
func TestWhoHasEnded(t *testing.T) {
	for _, ahead := range [][]int{{impl.PutHeadEnd}, {impl.GotHead, impl.PutHeadEnd}, {impl.GotHead, impl.PutHead, impl.PutDataEnd}, {impl.PutHead, impl.PutDataEnd}} {
		checkRun(t, ahead, impl.StHalfHere, len(ahead))
		for _, ev := range []int{impl.PutHead, impl.PutHeadEnd, impl.PutData, impl.PutDataEnd} {
			checkRun(t, append(slices.Clone(ahead), ev), impl.StHalfHere, len(ahead))
			checkStep(t, impl.StHalfHere, ev, impl.StHalfHere, impl.StepClosed)
		}
		checkRun(t, append(slices.Clone(ahead), impl.GotData, impl.GotData, impl.GotDataEnd), impl.StClosed, len(ahead)+3)
		checkRun(t, append(slices.Clone(ahead), impl.GotHeadEnd), impl.StClosed, len(ahead)+1)
		checkRun(t, append(slices.Clone(ahead), impl.PutReset), impl.StClosed, len(ahead)+1)
		checkRun(t, append(slices.Clone(ahead), impl.GotReset), impl.StClosed, len(ahead)+1)
	}
	for _, ahead := range [][]int{{impl.GotHeadEnd}, {impl.GotHead, impl.GotHeadEnd}, {impl.GotHead, impl.PutHead, impl.GotDataEnd}, {impl.PutHead, impl.GotHeadEnd}} {
		checkRun(t, ahead, impl.StHalfThere, len(ahead))
		for _, ev := range []int{impl.GotHead, impl.GotHeadEnd, impl.GotData, impl.GotDataEnd} {
			checkRun(t, append(slices.Clone(ahead), ev), impl.StHalfThere, len(ahead))
			checkStep(t, impl.StHalfThere, ev, impl.StHalfThere, impl.StepClosed)
		}
		checkRun(t, append(slices.Clone(ahead), impl.PutHead, impl.PutData, impl.PutDataEnd), impl.StClosed, len(ahead)+3)
		checkRun(t, append(slices.Clone(ahead), impl.PutHeadEnd), impl.StClosed, len(ahead)+1)
		checkRun(t, append(slices.Clone(ahead), impl.PutReset), impl.StClosed, len(ahead)+1)
		checkRun(t, append(slices.Clone(ahead), impl.GotReset), impl.StClosed, len(ahead)+1)
	}
}

func TestResetsInEveryState(t *testing.T) {
	for _, ev := range []int{impl.GotReset, impl.PutReset} {
		checkStep(t, impl.StIdle, ev, impl.StIdle, impl.StepBad)
		checkStep(t, impl.StOpen, ev, impl.StClosed, impl.StepGood)
		checkStep(t, impl.StHalfThere, ev, impl.StClosed, impl.StepGood)
		checkStep(t, impl.StHalfHere, ev, impl.StClosed, impl.StepGood)
	}
	checkStep(t, impl.StClosed, impl.GotReset, impl.StClosed, impl.StepGood)
	checkStep(t, impl.StClosed, impl.PutReset, impl.StClosed, impl.StepClosed)
}

// Header fields without an end come but once from the other side; behind its end they are StepClosed, not StepBad.
func TestGotHeadOfABegunStream(t *testing.T) {
	checkStep(t, impl.StIdle, impl.GotHead, impl.StOpen, impl.StepGood)
	checkStep(t, impl.StOpen, impl.GotHead, impl.StOpen, impl.StepBad)
	checkStep(t, impl.StHalfHere, impl.GotHead, impl.StHalfHere, impl.StepBad)
	checkStep(t, impl.StHalfThere, impl.GotHead, impl.StHalfThere, impl.StepClosed)
	checkStep(t, impl.StClosed, impl.GotHead, impl.StClosed, impl.StepClosed)
	checkRun(t, []int{impl.GotHead, impl.GotHead}, impl.StOpen, 1)
	checkRun(t, []int{impl.PutHead, impl.GotHead}, impl.StOpen, 1)
	checkRun(t, []int{impl.PutHeadEnd, impl.GotHead}, impl.StHalfHere, 1)
}

func TestStreamRun(t *testing.T) {
	whole := []int{impl.GotHead, impl.GotData, impl.GotDataEnd, impl.PutHead, impl.PutData, impl.PutDataEnd}
	checkRun(t, nil, impl.StIdle, 0)
	checkRun(t, []int{}, impl.StIdle, 0)
	checkRun(t, whole, impl.StClosed, 6)
	for i, state := range []int{impl.StIdle, impl.StOpen, impl.StOpen, impl.StHalfThere, impl.StHalfThere, impl.StHalfThere, impl.StClosed} {
		checkRun(t, whole[:i], state, i)
	}
	checkRun(t, []int{impl.GotHeadEnd, impl.PutHeadEnd}, impl.StClosed, 2)
	checkRun(t, []int{impl.PutHeadEnd, impl.GotHeadEnd}, impl.StClosed, 2)
	checkRun(t, []int{impl.PutHead, impl.PutHead, impl.PutHead}, impl.StOpen, 3)
	checkRun(t, []int{impl.GotHead, impl.PutHead, impl.PutHeadEnd, impl.GotDataEnd, impl.GotReset}, impl.StClosed, 5)
	// Refused: the first one, one in the middle, the last one.
	for _, ev := range []int{impl.GotData, impl.GotDataEnd, impl.GotReset, impl.PutData, impl.PutDataEnd, impl.PutReset} {
		checkRun(t, []int{ev}, impl.StIdle, 0)
		checkRun(t, []int{ev, impl.GotHead, impl.GotHeadEnd}, impl.StIdle, 0)
	}
	checkRun(t, []int{impl.GotHead, impl.GotDataEnd, impl.GotData, impl.PutHeadEnd}, impl.StHalfThere, 2)
	checkRun(t, []int{impl.PutHead, impl.PutDataEnd, impl.PutData, impl.GotHeadEnd}, impl.StHalfHere, 2)
	checkRun(t, []int{impl.GotHead, impl.GotData, impl.GotData, impl.GotHead}, impl.StOpen, 3)
	// Behind the first that is refused nothing counts, not even what would be good.
	checkRun(t, []int{impl.GotHead, impl.GotHead, impl.GotReset}, impl.StOpen, 1)
	checkRun(t, []int{impl.GotHeadEnd, impl.GotData, impl.GotData, impl.PutReset}, impl.StHalfThere, 1)
	// Behind StClosed a reset of the other side is good, all else is not.
	checkRun(t, []int{impl.GotHead, impl.PutReset, impl.GotReset, impl.GotReset, impl.GotReset}, impl.StClosed, 5)
	checkRun(t, []int{impl.GotHead, impl.PutReset, impl.GotReset, impl.PutReset, impl.GotReset}, impl.StClosed, 3)
	for ev := 1; ev <= 10; ev++ {
		place := len(whole)
		if ev == impl.GotReset {
			place++
		}
		checkRun(t, append(slices.Clone(whole), ev), impl.StClosed, place)
	}
}

func TestRunOverWhatIsNoEvent(t *testing.T) {
	good := []int{impl.GotHead, impl.PutHead, impl.GotDataEnd, impl.PutData, impl.PutDataEnd, impl.GotReset}
	for _, ev := range noEvents {
		for place := range len(good) + 1 {
			state, _ := docRun(good[:place])
			checkRun(t, slices.Insert(slices.Clone(good), place, ev), state, place)
		}
	}
}

func TestALongRun(t *testing.T) {
	for _, length := range []int{1, 2, 100, 1000, 100000} {
		checkRun(t, slices.Concat([]int{impl.GotHead}, slices.Repeat([]int{impl.GotData, impl.PutData, impl.PutHead}, length)), impl.StOpen, 1+3*length)
		checkRun(t, slices.Concat([]int{impl.PutHeadEnd}, slices.Repeat([]int{impl.GotData}, length), []int{impl.PutData}), impl.StHalfHere, 1+length)
		checkRun(t, slices.Concat([]int{impl.PutHead, impl.PutReset}, slices.Repeat([]int{impl.GotReset}, length)), impl.StClosed, 2+length)
	}
}

func TestMayPutAndMayGet(t *testing.T) {
	for _, x := range []struct {
		state    int
		put, get bool
	}{
		{impl.StIdle, false, false}, {impl.StOpen, true, true}, {impl.StHalfThere, true, false}, {impl.StHalfHere, false, true}, {impl.StClosed, false, false},
	} {
		if put, get := impl.MayPut(x.state), impl.MayGet(x.state); put != x.put || get != x.get {
			t.Errorf("state %d: MayPut %v, MayGet %v", x.state, put, get)
		}
	}
	for _, state := range noStates {
		if impl.MayPut(state) || impl.MayGet(state) {
			t.Errorf("state %d: MayPut %v, MayGet %v", state, impl.MayPut(state), impl.MayGet(state))
		}
	}
	for state := -20; state < 25; state++ {
		_, put := impl.StreamStep(state, impl.PutData)
		_, get := impl.StreamStep(state, impl.GotData)
		if impl.MayPut(state) != (put == impl.StepGood) || impl.MayGet(state) != (get == impl.StepGood) {
			t.Errorf("state %d: MayPut and MayGet are not as the steps", state)
		}
	}
}

// Promise 9: a stream that is closed stays so, whatever comes.
func TestWhatIsClosedStaysSo(t *testing.T) {
	for ev := -20; ev < 30; ev++ {
		next, code := impl.StreamStep(impl.StClosed, ev)
		if next != impl.StClosed || (code == impl.StepGood) != (ev == impl.GotReset) {
			t.Errorf("closed, event %d: state %d, code %d", ev, next, code)
		}
	}
	for _, ev := range noEvents {
		checkStep(t, impl.StClosed, ev, impl.StClosed, impl.StepBad)
	}
	closers := [][]int{
		{impl.GotHead, impl.GotReset}, {impl.PutHead, impl.PutReset}, {impl.GotHeadEnd, impl.PutHeadEnd}, {impl.PutHeadEnd, impl.GotDataEnd},
		{impl.GotHeadEnd, impl.GotReset}, {impl.GotHeadEnd, impl.PutReset}, {impl.PutHeadEnd, impl.GotReset}, {impl.PutHeadEnd, impl.PutReset},
		{impl.GotHead, impl.GotDataEnd, impl.PutHead, impl.PutDataEnd},
	}
	d := drawer(9)
	for round := range 2000 {
		closer := closers[round%len(closers)]
		checkRun(t, closer, impl.StClosed, len(closer))
		evs, state := slices.Clone(closer), impl.StClosed
		for range 30 {
			ev := d.draw(14) - 1
			evs = append(evs, ev)
			// Also when each one that is refused is passed over.
			state, _ = impl.StreamStep(state, ev)
			if state != impl.StClosed {
				t.Fatalf("round %d: state %d behind %v", round, state, evs)
			}
		}
		if got, _ := impl.StreamRun(evs); got != impl.StClosed {
			t.Errorf("round %d: StreamRun of %v: state %d", round, evs, got)
		}
	}
}

// No state is come back to that was left: states go up from idle to open, to half closed, to closed.
func TestStreamsGoOneWay(t *testing.T) {
	rank := []int{0, 1, 2, 2, 3}
	for state := range 5 {
		for ev := 1; ev <= 10; ev++ {
			next, code := impl.StreamStep(state, ev)
			if code != impl.StepGood || next == state {
				continue
			}
			if next < 0 || next > 4 || rank[next] <= rank[state] {
				t.Errorf("state %d, event %d: back to state %d", state, ev, next)
			}
		}
	}
}

// checkRunBySteps asks that events one by one are as a run, and both as the document says.
func checkRunBySteps(t *testing.T, evs []int) {
	t.Helper()
	state, place := 0, 0
	for _, ev := range evs {
		next, code := impl.StreamStep(state, ev)
		if code != impl.StepGood {
			break
		}
		state, place = next, place+1
	}
	checkRun(t, evs, state, place)
	wantState, wantPlace := docRun(evs)
	checkRun(t, evs, wantState, wantPlace)
}

func TestShortRunsBySteps(t *testing.T) {
	for length := range 5 {
		evs := make([]int, length)
		for {
			checkRunBySteps(t, evs)
			// Counted up over the events 0 .. 11.
			i := 0
			for ; i < length && evs[i] == 11; i++ {
				evs[i] = 0
			}
			if i == length {
				break
			}
			evs[i]++
		}
	}
}

// Drawn runs that are mostly good go far, and are told by who has ended what.
func TestDrawnRunsBySteps(t *testing.T) {
	d := drawer(99)
	for range 3000 {
		evs, here, there := []int{}, false, false
		state := impl.StIdle
		for range 20 {
			ev := 1 + d.draw(10)
			next, code := impl.StreamStep(state, ev)
			if code != impl.StepGood && d.draw(4) != 0 {
				continue
			}
			evs = append(evs, ev)
			if code != impl.StepGood {
				break
			}
			if !isReset(ev) && (here && isPut(ev) || there && isGot(ev)) {
				t.Fatalf("%v: the last one is good behind an end", evs)
			}
			here = here || isReset(ev) || isPut(ev) && isEnd(ev)
			there = there || isReset(ev) || isGot(ev) && isEnd(ev)
			if state = next; (state == impl.StClosed) != (here && there) || (state == impl.StHalfHere) != (here && !there) || (state == impl.StHalfThere) != (there && !here) {
				t.Fatalf("%v: state %d, ended here %v, there %v", evs, state, here, there)
			}
		}
		checkRunBySteps(t, evs)
	}
}

// Nothing is written into the events, nor behind them, and what lies behind them is not read.
func TestStreamRunLeavesItsEventsAlone(t *testing.T) {
	for _, evs := range [][]int{{}, {impl.GotHead}, {impl.GotData}, {impl.GotHead, impl.GotHead}, {impl.GotHead, impl.GotDataEnd, impl.PutHeadEnd}, {impl.GotHead, 0, impl.GotReset}, {impl.PutHeadEnd, math.MinInt}, {impl.GotHead, impl.PutReset, impl.GotReset}} {
		state, place := docRun(evs)
		for _, spare := range [][]int{nil, {impl.GotReset}, {impl.GotHead, impl.GotReset, impl.GotReset}, {impl.PutHeadEnd, impl.GotHeadEnd}, {0, -1, 11}, slices.Repeat([]int{impl.PutReset}, 50)} {
			all := slices.Concat(evs, spare)
			before := slices.Clone(all)
			checkRun(t, all[:len(evs)], state, place)
			if !slices.Equal(all, before) {
				t.Errorf("StreamRun of %v with %v behind: they are %v then", evs, spare, all)
			}
		}
	}
}

// No call keeps anything: what is refused, or closed, leaves nothing behind.
func TestStreamsStepAlikeAgain(t *testing.T) {
	for range 3 {
		checkRun(t, []int{impl.GotHead, impl.PutReset}, impl.StClosed, 2)
		checkRun(t, []int{impl.GotHead}, impl.StOpen, 1)
		checkRun(t, []int{impl.GotData}, impl.StIdle, 0)
		checkStep(t, 7, impl.GotHead, 7, impl.StepBad)
		checkStep(t, impl.StClosed, impl.PutHead, impl.StClosed, impl.StepClosed)
		checkStep(t, impl.StIdle, impl.PutHead, impl.StOpen, impl.StepGood)
		if !impl.MayPut(impl.StOpen) || impl.MayPut(impl.StClosed) || !impl.MayGet(impl.StHalfHere) || impl.MayGet(impl.StIdle) {
			t.Error("MayPut and MayGet are others")
		}
	}
}
