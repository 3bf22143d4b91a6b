package tests

import (
	"fmt"
	"math"
	"slices"
	"testing"

	"loop.example/g00199/impl"
)

// topWindow is the greatest window.
const topWindow = 1<<31 - 1

// greatNumbers are far from every bound; some are within it when they are cut to fewer bits, or added up with a wrap-round.
var greatNumbers = []int{math.MinInt, math.MinInt + 1, math.MinInt + topWindow, -1 << 62, -1<<32 + 3, -1 << 32, -1<<31 - 1, -1 << 31, 1 << 31, 1<<31 + 3, 1<<32 - 1, 1 << 32, 1<<32 + 1, 1<<32 + 3, 1 << 62, math.MaxInt - topWindow, math.MaxInt - 1, math.MaxInt}

// flowOf has Lanes of these pairs: an Id, and what is Left.
func flowOf(conn int, first int, pairs ...int) impl.Flow {
	f := impl.Flow{Conn: conn, Init: first}
	for pair := range slices.Chunk(pairs, 2) {
		f.Lanes = append(f.Lanes, impl.Lane{Id: pair[0], Left: pair[1]})
	}
	return f
}

// manyLanes has so many Lanes, of the Ids first, first+step ..
func manyLanes(count int, first int, step int) impl.Flow {
	f := impl.Flow{Conn: 1000, Init: 50}
	for i := range count {
		f.Lanes = append(f.Lanes, impl.Lane{Id: first + i*step, Left: i - 20})
	}
	return f
}

func sameFlow(a impl.Flow, b impl.Flow) bool {
	return a.Conn == b.Conn && a.Init == b.Init && slices.Equal(a.Lanes, b.Lanes)
}

func flowTitle(f impl.Flow) string {
	return fmt.Sprintf("Conn %d, Init %d, %d Lanes %.80s", f.Conn, f.Init, len(f.Lanes), fmt.Sprint(f.Lanes))
}

// A flowCall is one of the calls that answer a Flow and whether all went well.
type flowCall struct {
	name  string
	id, n int
}

func (c flowCall) of(f impl.Flow) (impl.Flow, bool) {
	switch c.name {
	case "OpenLane":
		return impl.OpenLane(f, c.id)
	case "CloseLane":
		return impl.CloseLane(f, c.id)
	case "Spend":
		return impl.Spend(f, c.id, c.n)
	case "Grant":
		return impl.Grant(f, c.id, c.n)
	}
	return impl.NewInit(f, c.n)
}

func opens(id int) flowCall { return flowCall{name: "OpenLane", id: id} }

func closes(id int) flowCall { return flowCall{name: "CloseLane", id: id} }

func spends(id int, n int) flowCall { return flowCall{"Spend", id, n} }

func grants(id int, n int) flowCall { return flowCall{"Grant", id, n} }

func begins(n int) flowCall { return flowCall{name: "NewInit", n: n} }

// checkFlow asks for what a call answers, and for true.
func checkFlow(t *testing.T, f impl.Flow, c flowCall, want impl.Flow) {
	t.Helper()
	if got, ok := c.of(f); !ok || !sameFlow(got, want) {
		t.Errorf("%v of (%s):\n(%s), %v, not\n(%s), true", c, flowTitle(f), flowTitle(got), ok, flowTitle(want))
	}
}

// checkNoFlow asks for the Flow as it was, and false.
func checkNoFlow(t *testing.T, f impl.Flow, c flowCall) {
	t.Helper()
	if got, ok := c.of(f); ok || !sameFlow(got, f) {
		t.Errorf("%v of (%s):\n(%s), %v, not as it was and false", c, flowTitle(f), flowTitle(got), ok)
	}
}

func checkRoom(t *testing.T, f impl.Flow, id int, want int) {
	t.Helper()
	if got := impl.RoomOf(f, id); got != want {
		t.Errorf("RoomOf of (%s), %d: %d, not %d", flowTitle(f), id, got, want)
	}
}

// wrongFlows are not FlowOk, each way by itself, with a Lane 3 wherever Lanes are.
func wrongFlows() []impl.Flow {
	l := []impl.Flow{
		flowOf(-1, 50), flowOf(topWindow+1, 50), flowOf(100, -1), flowOf(100, topWindow+1),
		flowOf(-1, 50, 3, 40), flowOf(topWindow+1, 50, 3, 40), flowOf(100, -1, 3, 40), flowOf(100, topWindow+1, 3, 40),
		flowOf(100, 50, 0, 40, 3, 40), flowOf(100, 50, -1, 40, 3, 40), flowOf(100, 50, math.MinInt, 40, 3, 40),
		flowOf(100, 50, 3, -topWindow-1), flowOf(100, 50, 3, topWindow+1), flowOf(100, 50, 3, 40, 5, -topWindow-1), flowOf(100, 50, 3, 40, 5, topWindow+1),
		flowOf(100, 50, 1, topWindow+1, 3, 40), flowOf(100, 50, 3, 40, 5, math.MinInt), flowOf(100, 50, 3, 40, 5, math.MaxInt),
		flowOf(100, 50, 5, 40, 3, 40), flowOf(100, 50, 1, 40, 5, 40, 3, 40), flowOf(100, 50, 3, 40, 1, 40, 5, 40), flowOf(100, 50, 9, 40, 5, 40, 3, 40),
		flowOf(100, 50, 3, 40, 3, 40), flowOf(100, 50, 3, 40, 3, 30), flowOf(100, 50, 1, 40, 3, 40, 3, 40, 5, 40), flowOf(100, 50, 1, 7, 1, 7, 3, 40),
		manyLanes(101, 3, 2), manyLanes(101, 1, 1), manyLanes(102, 3, 1), manyLanes(1000, 3, 2),
		flowOf(-1, -1, 3, topWindow+1, 0, 0), flowOf(math.MinInt, math.MinInt, 3, math.MinInt), flowOf(math.MaxInt, math.MaxInt, 3, math.MaxInt),
	}
	for _, n := range greatNumbers {
		l = append(l, flowOf(n, 50, 3, 40), flowOf(100, n, 3, 40))
	}
	return l
}

func TestConstantsOfWindows(t *testing.T) {
	if impl.MaxWindow != 2147483647 {
		t.Errorf("MaxWindow is %d", impl.MaxWindow)
	}
}

func TestFlowOk(t *testing.T) {
	for _, f := range []impl.Flow{
		{}, {Lanes: []impl.Lane{}}, flowOf(0, 0), flowOf(1, 1), flowOf(topWindow, topWindow), flowOf(0, topWindow), flowOf(topWindow, 0), flowOf(65535, 65535),
		flowOf(100, 50, 1, 0), flowOf(100, 50, 2, 1), flowOf(100, 50, 1, -1), flowOf(100, 50, 1, 40, 2, 40), flowOf(100, 50, 1, 40, 3, 40, 4, 40, 9, 0),
		flowOf(100, 50, 1, -topWindow), flowOf(100, 50, 1, topWindow), flowOf(100, 50, 1, -topWindow, 2, topWindow, 3, -topWindow+1, 4, topWindow-1),
		// A Lane may have more than Conn, and more or less than Init, and its Id may be any number of 1 or more.
		flowOf(0, 0, 1, topWindow), flowOf(topWindow, topWindow, 1, -topWindow),
		flowOf(100, 50, topStream, 1, topStream+1, 2, 1<<32, 3, 1<<32+1, 4, math.MaxInt-1, 5, math.MaxInt, 6),
		manyLanes(99, 1, 1), manyLanes(100, 1, 1), manyLanes(100, 1, 2), manyLanes(100, math.MaxInt-99, 1),
	} {
		if !impl.FlowOk(f) {
			t.Errorf("FlowOk of (%s): false", flowTitle(f))
		}
	}
	for _, f := range wrongFlows() {
		if impl.FlowOk(f) {
			t.Errorf("FlowOk of (%s): true", flowTitle(f))
		}
	}
}

func TestEdgesOfFlowOk(t *testing.T) {
	for _, n := range slices.Concat(greatNumbers, []int{-topWindow - 1, -topWindow, -1, 0, 1, topWindow - 1, topWindow, topWindow + 1}) {
		window := n >= 0 && n <= topWindow
		for f, want := range map[*impl.Flow]bool{
			{Conn: n}: window, {Init: n}: window, {Conn: n, Init: n}: window,
			{Lanes: []impl.Lane{{Id: n}}}: n >= 1, {Lanes: []impl.Lane{{Id: 1, Left: n}}}: n >= -topWindow && n <= topWindow,
			{Lanes: []impl.Lane{{Id: 1}, {Id: n}}}: n > 1, {Lanes: []impl.Lane{{Id: n}, {Id: math.MaxInt}}}: n >= 1 && n < math.MaxInt,
			{Lanes: []impl.Lane{{Id: n}, {Id: n}}}: false, {Lanes: []impl.Lane{{Id: n}, {Id: n, Left: 1}}}: false,
		} {
			if got := impl.FlowOk(*f); got != want {
				t.Errorf("FlowOk of (%s): %v", flowTitle(*f), got)
			}
		}
	}
	// One wrong Lane is wrong wherever it stands: Ids go from 2 to 200 by 2.
	for at := range 100 {
		wrong := []impl.Lane{{Id: 0}, {Id: -5}, {Id: 2 * at}, {Id: 2*at + 2, Left: topWindow + 1}, {Id: 2*at + 2, Left: -topWindow - 1}}
		if at < 99 {
			wrong = append(wrong, impl.Lane{Id: 2*at + 4}, impl.Lane{Id: 300})
		}
		for _, lane := range wrong {
			f := manyLanes(100, 2, 2)
			f.Lanes[at] = lane
			if impl.FlowOk(f) {
				t.Errorf("FlowOk with %v at %d: true", lane, at)
			}
		}
	}
}

func TestFlowNew(t *testing.T) {
	for _, n := range []int{0, 1, 100, 65534, 65535, 65536, topWindow - 1, topWindow} {
		f := impl.FlowNew(n)
		if !sameFlow(f, flowOf(65535, n)) || !impl.FlowOk(f) {
			t.Errorf("FlowNew of %d: (%s)", n, flowTitle(f))
		}
	}
	for _, n := range slices.Concat(greatNumbers, []int{-1, -2, -65535, topWindow + 1}) {
		if f := impl.FlowNew(n); !sameFlow(f, impl.Flow{}) {
			t.Errorf("FlowNew of %d: (%s)", n, flowTitle(f))
		}
	}
}

func TestOpenLane(t *testing.T) {
	checkFlow(t, flowOf(100, 50), opens(1), flowOf(100, 50, 1, 50))
	checkFlow(t, flowOf(100, 50), opens(7), flowOf(100, 50, 7, 50))
	checkFlow(t, impl.Flow{}, opens(1), flowOf(0, 0, 1, 0))
	checkFlow(t, flowOf(0, topWindow), opens(2), flowOf(0, topWindow, 2, topWindow))
	f := flowOf(100, 50, 3, 10, 5, -20, 9, 70)
	checkFlow(t, f, opens(1), flowOf(100, 50, 1, 50, 3, 10, 5, -20, 9, 70))
	checkFlow(t, f, opens(2), flowOf(100, 50, 2, 50, 3, 10, 5, -20, 9, 70))
	checkFlow(t, f, opens(4), flowOf(100, 50, 3, 10, 4, 50, 5, -20, 9, 70))
	checkFlow(t, f, opens(6), flowOf(100, 50, 3, 10, 5, -20, 6, 50, 9, 70))
	checkFlow(t, f, opens(8), flowOf(100, 50, 3, 10, 5, -20, 8, 50, 9, 70))
	checkFlow(t, f, opens(10), flowOf(100, 50, 3, 10, 5, -20, 9, 70, 10, 50))
	checkFlow(t, f, opens(math.MaxInt), flowOf(100, 50, 3, 10, 5, -20, 9, 70, math.MaxInt, 50))
	for _, id := range []int{3, 5, 9, 0, -1, -3} {
		checkNoFlow(t, f, opens(id))
	}
	for _, id := range greatNumbers {
		if id < 1 {
			checkNoFlow(t, f, opens(id))
			checkNoFlow(t, flowOf(100, 50), opens(id))
			continue
		}
		checkFlow(t, f, opens(id), flowOf(100, 50, 3, 10, 5, -20, 9, 70, id, 50))
	}
	for _, id := range []int{0, -1} {
		checkNoFlow(t, flowOf(100, 50), opens(id))
		checkNoFlow(t, manyLanes(100, 2, 2), opens(id))
	}
}

func TestHowManyLanes(t *testing.T) {
	for place := range 100 {
		full := manyLanes(100, 2, 2)
		rest := impl.Flow{Conn: full.Conn, Init: full.Init, Lanes: slices.Delete(slices.Clone(full.Lanes), place, place+1)}
		full.Lanes[place].Left = full.Init
		checkFlow(t, rest, opens(2*place+2), full)
		checkNoFlow(t, full, opens(2*place+1))
		checkNoFlow(t, full, opens(2*place+2))
		checkFlow(t, full, closes(2*place+2), rest)
	}
	checkNoFlow(t, manyLanes(100, 2, 2), opens(201))
	checkNoFlow(t, manyLanes(100, 2, 2), opens(math.MaxInt))
	f := impl.FlowNew(7)
	for id := 101; id >= 1; id-- {
		next, ok := impl.OpenLane(f, id)
		if ok != (id > 1) || ok && len(next.Lanes) != 102-id || !ok && !sameFlow(next, f) {
			t.Fatalf("OpenLane of %d behind %d: %d, %v", id, len(f.Lanes), len(next.Lanes), ok)
		}
		f = next
	}
	if len(f.Lanes) != 100 || f.Lanes[0].Id != 2 || f.Lanes[99].Id != 101 {
		t.Errorf("(%s)", flowTitle(f))
	}
}

func TestCloseLane(t *testing.T) {
	f := flowOf(100, 50, 3, 10, 5, -20, 9, 70)
	checkFlow(t, f, closes(3), flowOf(100, 50, 5, -20, 9, 70))
	checkFlow(t, f, closes(5), flowOf(100, 50, 3, 10, 9, 70))
	checkFlow(t, f, closes(9), flowOf(100, 50, 3, 10, 5, -20))
	checkFlow(t, flowOf(100, 50, 4, 10), closes(4), flowOf(100, 50))
	checkFlow(t, flowOf(100, 50, math.MaxInt, -topWindow), closes(math.MaxInt), flowOf(100, 50))
	for _, id := range slices.Concat(greatNumbers, []int{-5, -3, -1, 0, 1, 2, 4, 6, 8, 10, 50, 100}) {
		checkNoFlow(t, f, closes(id))
		checkNoFlow(t, flowOf(100, 50), closes(id))
		checkNoFlow(t, impl.Flow{}, closes(id))
	}
}

// A Lane that is opened has Init, and, closed, is gone: all is as it was.
func TestWhatIsOpenedAndClosedIsAsItWas(t *testing.T) {
	d := drawer(10)
	for range 1000 {
		f := d.flow(99)
		id := 1 + d.draw(300)
		open, ok := impl.OpenLane(f, id)
		if there := hasLane(f, id); ok == there {
			t.Fatalf("OpenLane of (%s), %d: %v", flowTitle(f), id, ok)
		} else if there {
			continue
		}
		if !hasLane(open, id) || !impl.FlowOk(open) || len(open.Lanes) != len(f.Lanes)+1 {
			t.Fatalf("OpenLane of (%s), %d: (%s)", flowTitle(f), id, flowTitle(open))
		}
		checkRoom(t, open, id, min(f.Conn, f.Init))
		checkNoFlow(t, open, opens(id))
		checkFlow(t, open, closes(id), f)
		checkRoom(t, f, id, 0)
	}
}

func TestRoomOf(t *testing.T) {
	f := flowOf(100, 50, 1, 40, 2, 99, 3, 100, 4, 101, 5, topWindow, 6, 0, 7, -1, 8, -topWindow, 9, 1)
	for id, want := range []int{0, 40, 99, 100, 100, 100, 0, 0, 0, 1, 0} {
		checkRoom(t, f, id, want)
	}
	f.Conn = 0
	for id := range 11 {
		checkRoom(t, f, id, 0)
	}
	f.Conn = topWindow
	for id, want := range []int{0, 40, 99, 100, 101, topWindow, 0, 0, 0, 1, 0} {
		checkRoom(t, f, id, want)
	}
	for _, id := range slices.Concat(greatNumbers, []int{-1, -2, -9, 0, 10, 11, 100}) {
		checkRoom(t, f, id, 0)
		checkRoom(t, flowOf(100, 50), id, 0)
		checkRoom(t, impl.Flow{}, id, 0)
	}
	checkRoom(t, flowOf(100, 50, math.MaxInt, 7), math.MaxInt, 7)
	for place := range 100 {
		full := manyLanes(100, 2, 2)
		checkRoom(t, full, 2*place+2, max(0, place-20))
		checkRoom(t, full, 2*place+1, 0)
	}
}

// The chapter names no other answer of a Flow that is not FlowOk: it is the same sentence, of the first Lane with this Id.
func TestRoomOfWrongFlows(t *testing.T) {
	for _, f := range wrongFlows() {
		for _, id := range []int{-5, -1, 0, 1, 3, 4, 5, 9, math.MinInt, math.MaxInt} {
			want := 0
			if at := slices.IndexFunc(f.Lanes, func(l impl.Lane) bool { return l.Id == id }); at >= 0 {
				want = max(0, min(f.Conn, f.Lanes[at].Left))
			}
			checkRoom(t, f, id, want)
		}
	}
	checkRoom(t, flowOf(-1, 50, 3, 40), 3, 0)
	checkRoom(t, flowOf(topWindow+1, 50, 3, 40), 3, 40)
	checkRoom(t, flowOf(100, 50, 5, 40, 3, 30), 3, 30)
	checkRoom(t, flowOf(100, 50, 5, 40, 3, 30), 5, 40)
	checkRoom(t, flowOf(100, 50, 3, 40, 3, 30), 3, 40)
	checkRoom(t, flowOf(100, 50, 3, 30, 3, 40), 3, 30)
}

func TestSpend(t *testing.T) {
	f := flowOf(100, 50, 3, 40, 5, 100, 7, 170, 8, 0, 9, -20)
	checkFlow(t, f, spends(3, 0), f)
	checkFlow(t, f, spends(3, 1), flowOf(99, 50, 3, 39, 5, 100, 7, 170, 8, 0, 9, -20))
	checkFlow(t, f, spends(3, 40), flowOf(60, 50, 3, 0, 5, 100, 7, 170, 8, 0, 9, -20))
	checkFlow(t, f, spends(5, 100), flowOf(0, 50, 3, 40, 5, 0, 7, 170, 8, 0, 9, -20))
	checkFlow(t, f, spends(7, 100), flowOf(0, 50, 3, 40, 5, 100, 7, 70, 8, 0, 9, -20))
	checkFlow(t, f, spends(8, 0), f)
	// Nothing is spent of a Lane that is below 0, too.
	checkFlow(t, f, spends(9, 0), f)
	for _, c := range []flowCall{
		spends(3, -1), spends(3, 41), spends(3, 100), spends(5, 101), spends(7, 101), spends(7, 170), spends(8, 1), spends(8, -1), spends(9, 1), spends(9, -1), spends(9, -20), spends(9, 20),
		spends(0, 0), spends(0, 1), spends(1, 0), spends(4, 0), spends(10, 0), spends(-3, 0), spends(-1, 1), spends(6, 1),
	} {
		checkNoFlow(t, f, c)
	}
	for _, n := range greatNumbers {
		for _, id := range []int{3, 7, 9} {
			checkNoFlow(t, f, spends(id, n))
		}
		checkNoFlow(t, f, spends(n, 0))
		checkNoFlow(t, f, spends(n, 1))
		checkNoFlow(t, f, spends(n, n))
	}
	top := flowOf(topWindow, topWindow, 1, topWindow, 2, -topWindow)
	checkFlow(t, top, spends(1, topWindow), flowOf(0, topWindow, 1, 0, 2, -topWindow))
	checkNoFlow(t, top, spends(1, topWindow+1))
	checkFlow(t, top, spends(2, 0), top)
	checkNoFlow(t, top, spends(2, 1))
	none := flowOf(0, 50, 3, 40)
	checkFlow(t, none, spends(3, 0), none)
	checkNoFlow(t, none, spends(3, 1))
	checkNoFlow(t, impl.Flow{}, spends(0, 0))
	checkNoFlow(t, flowOf(100, 50), spends(1, 0))
}

func TestGrant(t *testing.T) {
	f := flowOf(100, 50, 3, 40, 5, 0, 9, -20)
	checkFlow(t, f, grants(3, 1), flowOf(100, 50, 3, 41, 5, 0, 9, -20))
	checkFlow(t, f, grants(5, topWindow), flowOf(100, 50, 3, 40, 5, topWindow, 9, -20))
	checkFlow(t, f, grants(9, 1), flowOf(100, 50, 3, 40, 5, 0, 9, -19))
	checkFlow(t, f, grants(9, 20), flowOf(100, 50, 3, 40, 5, 0, 9, 0))
	checkFlow(t, f, grants(9, 21), flowOf(100, 50, 3, 40, 5, 0, 9, 1))
	checkFlow(t, f, grants(9, topWindow), flowOf(100, 50, 3, 40, 5, 0, 9, topWindow-20))
	checkFlow(t, f, grants(0, 1), flowOf(101, 50, 3, 40, 5, 0, 9, -20))
	checkFlow(t, f, grants(0, topWindow-100), flowOf(topWindow, 50, 3, 40, 5, 0, 9, -20))
	checkFlow(t, f, grants(3, topWindow-40), flowOf(100, 50, 3, topWindow, 5, 0, 9, -20))
	for _, c := range []flowCall{
		grants(3, -1), grants(3, 0), grants(3, topWindow-39), grants(3, topWindow), grants(3, topWindow+1),
		grants(5, topWindow+1), grants(9, topWindow+1), grants(9, topWindow+20), grants(9, 0), grants(9, -1),
		grants(0, -1), grants(0, 0), grants(0, topWindow-99), grants(0, topWindow), grants(0, topWindow+1),
		grants(1, 1), grants(4, 1), grants(10, 1), grants(-1, 1), grants(-3, 1), grants(-9, 20),
	} {
		checkNoFlow(t, f, c)
	}
	for _, n := range greatNumbers {
		for _, id := range []int{0, 3, 5, 9} {
			checkNoFlow(t, f, grants(id, n))
		}
		checkNoFlow(t, f, grants(n, 1))
		checkNoFlow(t, f, grants(n, topWindow))
		checkNoFlow(t, f, grants(n, n))
	}
	checkFlow(t, impl.Flow{}, grants(0, topWindow), flowOf(topWindow, 0))
	checkFlow(t, flowOf(0, 0), grants(0, 1), flowOf(1, 0))
	checkNoFlow(t, flowOf(topWindow, 0), grants(0, 1))
	checkNoFlow(t, flowOf(100, 50), grants(1, 1))
	low := flowOf(100, 50, 1, -topWindow, 2, topWindow)
	checkFlow(t, low, grants(1, topWindow), flowOf(100, 50, 1, 0, 2, topWindow))
	checkNoFlow(t, low, grants(1, topWindow+1))
	checkNoFlow(t, low, grants(1, 2*topWindow))
	checkNoFlow(t, low, grants(2, 1))
}

// What is granted of a Lane is not granted of Conn, nor of another Lane.
func TestGrantOfEachLane(t *testing.T) {
	for place := range 100 {
		f, want := manyLanes(100, 2, 2), manyLanes(100, 2, 2)
		want.Lanes[place].Left += 30
		checkFlow(t, f, grants(2*place+2, 30), want)
		checkNoFlow(t, f, grants(2*place+1, 30))
	}
}

func TestNewInit(t *testing.T) {
	f := flowOf(100, 50, 3, 40, 5, 0, 9, -20)
	checkFlow(t, f, begins(50), f)
	checkFlow(t, f, begins(51), flowOf(100, 51, 3, 41, 5, 1, 9, -19))
	checkFlow(t, f, begins(49), flowOf(100, 49, 3, 39, 5, -1, 9, -21))
	checkFlow(t, f, begins(10), flowOf(100, 10, 3, 0, 5, -40, 9, -60))
	checkFlow(t, f, begins(9), flowOf(100, 9, 3, -1, 5, -41, 9, -61))
	checkFlow(t, f, begins(0), flowOf(100, 0, 3, -10, 5, -50, 9, -70))
	checkFlow(t, f, begins(70), flowOf(100, 70, 3, 60, 5, 20, 9, 0))
	checkFlow(t, f, begins(topWindow), flowOf(100, topWindow, 3, topWindow-10, 5, topWindow-50, 9, topWindow-70))
	for _, n := range slices.Concat(greatNumbers, []int{-1, -50, topWindow + 1}) {
		checkNoFlow(t, f, begins(n))
		checkNoFlow(t, flowOf(100, 50), begins(n))
		checkNoFlow(t, impl.Flow{}, begins(n))
	}
	for _, n := range []int{0, 1, 50, topWindow - 1, topWindow} {
		checkFlow(t, flowOf(100, 50), begins(n), flowOf(100, n))
		checkFlow(t, impl.Flow{}, begins(n), flowOf(0, n))
		checkFlow(t, flowOf(topWindow, topWindow), begins(n), flowOf(topWindow, n))
	}
	// Up to MaxWindow just, and one above, of the first Lane, one in the middle, the last.
	for place := range 3 {
		high := flowOf(100, 50, 3, 40, 5, 0, 9, -20)
		high.Lanes[place].Left = topWindow - 7
		want := flowOf(100, 57, 3, 47, 5, 7, 9, -13)
		want.Lanes[place].Left = topWindow
		checkFlow(t, high, begins(57), want)
		checkNoFlow(t, high, begins(58))
		checkNoFlow(t, high, begins(topWindow))
		high.Lanes[place].Left = topWindow
		checkFlow(t, high, begins(50), high)
		checkNoFlow(t, high, begins(51))
	}
	checkFlow(t, flowOf(100, 0, 3, 0), begins(topWindow), flowOf(100, topWindow, 3, topWindow))
	checkNoFlow(t, flowOf(100, 0, 3, 1), begins(topWindow))
	checkFlow(t, flowOf(100, 0, 3, 1), begins(topWindow-1), flowOf(100, topWindow-1, 3, topWindow))
	checkFlow(t, flowOf(100, 0, 3, -topWindow), begins(topWindow), flowOf(100, topWindow, 3, 0))
	checkFlow(t, flowOf(100, topWindow, 3, topWindow), begins(0), flowOf(100, 0, 3, 0))
	checkFlow(t, flowOf(100, topWindow, 3, 0), begins(0), flowOf(100, 0, 3, -topWindow))
}

// Above MaxWindow alone is a reason to refuse: what comes too far below 0 is answered, though it is not FlowOk.
func TestNewInitFarBelowNought(t *testing.T) {
	for _, x := range []struct{ first, left, n, want int }{
		{topWindow, -1, 0, -topWindow - 1}, {topWindow, -topWindow, 0, -2 * topWindow}, {1, -topWindow, 0, -topWindow - 1}, {topWindow, -topWindow, topWindow - 1, -topWindow - 1},
	} {
		f := flowOf(100, x.first, 1, 5, 3, x.left)
		want := flowOf(100, x.n, 1, 5+x.n-x.first, 3, x.want)
		checkFlow(t, f, begins(x.n), want)
		if impl.FlowOk(want) {
			t.Errorf("FlowOk of (%s)", flowTitle(want))
		}
	}
}

// Each call with each Flow that is not FlowOk: it stays as it is.
func TestCallsOfWrongFlows(t *testing.T) {
	for _, f := range wrongFlows() {
		for _, id := range slices.Concat(greatNumbers, []int{-1, 0, 1, 2, 3, 4, 5, 9, 1000}) {
			checkNoFlow(t, f, opens(id))
			checkNoFlow(t, f, closes(id))
			for _, n := range []int{math.MinInt, -1, 0, 1, 40, topWindow, topWindow + 1, math.MaxInt} {
				checkNoFlow(t, f, spends(id, n))
				checkNoFlow(t, f, grants(id, n))
			}
		}
		for _, n := range slices.Concat(greatNumbers, []int{-1, 0, 1, 50, topWindow, topWindow + 1}) {
			checkNoFlow(t, f, begins(n))
		}
	}
	// The fault would be mended by the call.
	checkNoFlow(t, flowOf(-1, 50, 3, 40), grants(0, 2))
	checkNoFlow(t, flowOf(100, -1, 3, 40), begins(50))
	checkNoFlow(t, flowOf(100, 50, 3, -topWindow-1), grants(3, 1))
	checkNoFlow(t, flowOf(100, 50, 3, topWindow+1), begins(40))
	checkNoFlow(t, flowOf(topWindow+1, 50, 3, 40), spends(3, 1))
	checkNoFlow(t, flowOf(100, 50, 3, 40, 3, 40), closes(3))
	checkNoFlow(t, flowOf(100, 50, 0, 40), closes(0))
	checkNoFlow(t, manyLanes(101, 1, 1), closes(7))
	checkNoFlow(t, flowOf(100, 50, 0, 40), grants(0, 1))
}

func hasLane(f impl.Flow, id int) bool {
	return slices.ContainsFunc(f.Lanes, func(l impl.Lane) bool { return l.Id == id })
}

// window draws a number of 0 .. MaxWindow, often a small one or one near the end.
func (d *drawer) window() int {
	l := []int{0, 1, 50, 65535, d.draw(200), d.draw(200), d.word() & topWindow, topWindow - d.draw(200), topWindow}
	return l[d.draw(len(l))]
}

// flow draws a Flow that is FlowOk, of at most so many Lanes.
func (d *drawer) flow(most int) impl.Flow {
	f := impl.Flow{Conn: d.window(), Init: d.window()}
	id := 0
	for range d.draw(most + 1) {
		id += 1 + d.draw(4)
		left := d.window()
		if d.draw(3) == 0 {
			left = -left
		}
		f.Lanes = append(f.Lanes, impl.Lane{Id: id, Left: left})
	}
	return f
}

// Promise 10: what is spent, and granted again, is as it was; what is spent is spent of both.
func TestWhatIsSpentAndGrantedAgainIsAsItWas(t *testing.T) {
	d := drawer(1010)
	spent := 0
	for round := range 4000 {
		f := d.flow(1 + round%100)
		if len(f.Lanes) == 0 {
			continue
		}
		at := d.draw(len(f.Lanes))
		id, left := f.Lanes[at].Id, f.Lanes[at].Left
		room := max(0, min(f.Conn, left))
		checkRoom(t, f, id, room)
		checkNoFlow(t, f, spends(id, room+1))
		checkNoFlow(t, f, spends(id, -1))
		for _, n := range []int{0, min(1, room), room / 2, room, d.word() % (room + 1)} {
			less, ok := impl.Spend(f, id, n)
			want := impl.Flow{Conn: f.Conn - n, Init: f.Init, Lanes: slices.Clone(f.Lanes)}
			want.Lanes[at].Left = left - n
			if !ok || !sameFlow(less, want) || !impl.FlowOk(less) {
				t.Fatalf("round %d: Spend of (%s), %d, %d: (%s), %v", round, flowTitle(f), id, n, flowTitle(less), ok)
			}
			checkRoom(t, less, id, room-n)
			checkNoFlow(t, less, spends(id, room-n+1))
			if n == 0 {
				continue
			}
			spent++
			// Either one may be granted first.
			one, oneOk := impl.Grant(less, id, n)
			one, alsoOne := impl.Grant(one, 0, n)
			two, twoOk := impl.Grant(less, 0, n)
			two, alsoTwo := impl.Grant(two, id, n)
			if !oneOk || !alsoOne || !twoOk || !alsoTwo || !sameFlow(one, f) || !sameFlow(two, f) {
				t.Fatalf("round %d: %d spent of Lane %d and granted again: (%s), (%s), not (%s)", round, n, id, flowTitle(one), flowTitle(two), flowTitle(f))
			}
		}
	}
	if spent < 2000 {
		t.Errorf("only %d times anything was spent", spent)
	}
}

// Much is spent of several Lanes, one bit after another, and granted again in another order.
func TestWhatIsSpentBitByBitIsGrantedAgain(t *testing.T) {
	d := drawer(77)
	for round := range 300 {
		first := d.flow(20)
		f, total, of := first, 0, map[int]int{}
		for range 60 {
			if len(f.Lanes) == 0 {
				break
			}
			id := f.Lanes[d.draw(len(f.Lanes))].Id
			n := d.word() % (1 + impl.RoomOf(f, id))
			next, ok := impl.Spend(f, id, n)
			if !ok || next.Conn != f.Conn-n {
				t.Fatalf("round %d: Spend of (%s), %d, %d: %v", round, flowTitle(f), id, n, ok)
			}
			f, total, of[id] = next, total+n, of[id]+n
		}
		of[0] = total
		for _, id := range slices.Backward(append([]int{0}, idsIn(first)...)) {
			if of[id] == 0 {
				continue
			}
			next, ok := impl.Grant(f, id, of[id])
			if !ok {
				t.Fatalf("round %d: Grant of (%s), %d, %d: %v", round, flowTitle(f), id, of[id], ok)
			}
			f = next
		}
		if !sameFlow(f, first) {
			t.Errorf("round %d: (%s), not (%s)", round, flowTitle(f), flowTitle(first))
		}
	}
}

func idsIn(f impl.Flow) []int {
	ids := []int{}
	for _, l := range f.Lanes {
		ids = append(ids, l.Id)
	}
	return ids
}

// Another Init moves every Left as much, and the first Init moves them back.
func TestAnotherInitMovesEveryLeft(t *testing.T) {
	d := drawer(55)
	moved, refused := 0, 0
	for round := range 3000 {
		f, n := d.flow(1+round%30), d.window()
		want := impl.Flow{Conn: f.Conn, Init: n, Lanes: slices.Clone(f.Lanes)}
		fits := true
		for i := range want.Lanes {
			want.Lanes[i].Left += n - f.Init
			fits = fits && want.Lanes[i].Left <= topWindow
		}
		if !fits {
			refused++
			checkNoFlow(t, f, begins(n))
			continue
		}
		moved++
		checkFlow(t, f, begins(n), want)
		if impl.FlowOk(want) {
			checkFlow(t, want, begins(f.Init), f)
		}
	}
	if moved < 500 || refused < 500 {
		t.Errorf("%d times moved, %d times refused", moved, refused)
	}
}

// A plainFlow is told by a map: what is Left of each Id.
type plainFlow struct {
	conn, first int
	left        map[int]int
}

func (p *plainFlow) flow() impl.Flow {
	f := impl.Flow{Conn: p.conn, Init: p.first}
	for id, left := range p.left {
		f.Lanes = append(f.Lanes, impl.Lane{Id: id, Left: left})
	}
	slices.SortFunc(f.Lanes, func(a, b impl.Lane) int { return a.Id - b.Id })
	return f
}

// does carries the call out, if the document lets it, and tells whether it does.
func (p *plainFlow) does(c flowCall) bool {
	left, there := p.left[c.id]
	switch c.name {
	case "OpenLane":
		if there || c.id < 1 || len(p.left) == 100 {
			return false
		}
		p.left[c.id] = p.first
	case "CloseLane":
		if !there {
			return false
		}
		delete(p.left, c.id)
	case "Spend":
		if !there || c.n < 0 || c.n > p.conn && c.n > 0 || c.n > left && c.n > 0 {
			return false
		}
		p.conn -= c.n
		p.left[c.id] -= c.n
	case "Grant":
		return p.grants(c.id, c.n)
	case "NewInit":
		return p.begins(c.n)
	}
	return true
}

func (p *plainFlow) grants(id int, n int) bool {
	left, there := p.left[id]
	if n < 1 || n > topWindow {
		return false
	}
	if id == 0 {
		if p.conn+n > topWindow {
			return false
		}
		p.conn += n
		return true
	}
	if !there || left+n > topWindow {
		return false
	}
	p.left[id] = left + n
	return true
}

func (p *plainFlow) begins(n int) bool {
	if n < 0 || n > topWindow {
		return false
	}
	for _, left := range p.left {
		if left+n-p.first > topWindow {
			return false
		}
	}
	for id := range p.left {
		p.left[id] += n - p.first
	}
	p.first = n
	return true
}

func (d *drawer) flowCall(ids int) flowCall {
	id, n := d.draw(ids+2)-1, d.draw(300)-20
	switch d.draw(8) {
	case 0:
		n = d.window()
	case 1:
		id, n = greatNumbers[d.draw(len(greatNumbers))], 1
	case 2:
		n = greatNumbers[d.draw(len(greatNumbers))]
	}
	return []flowCall{opens(id), opens(id), opens(id), closes(id), spends(id, n), spends(id, n), grants(id, n), grants(0, n), begins(n)}[d.draw(9)]
}

// Drawn calls, one behind the other, are as told; of FlowNew, every Flow is FlowOk, also where Lefts are below 0.
func TestDrawnCallsAreAsTold(t *testing.T) {
	d := drawer(2010)
	done, below := map[string]int{}, 0
	for round := range 60 {
		ids := 3 + round%3*100
		first := d.draw(400)
		p := plainFlow{65535, first, map[int]int{}}
		f := impl.FlowNew(first)
		for step := range 400 {
			c := d.flowCall(ids)
			next, ok := c.of(f)
			want := p.does(c)
			if ok != want || !sameFlow(next, p.flow()) || !impl.FlowOk(next) {
				t.Fatalf("round %d, step %d: %v of (%s):\n(%s), %v, not\n(%s), %v", round, step, c, flowTitle(f), flowTitle(next), ok, flowTitle(p.flow()), want)
			}
			f = next
			if ok {
				done[c.name]++
			}
			for _, l := range f.Lanes {
				checkRoom(t, f, l.Id, max(0, min(p.conn, p.left[l.Id])))
				if l.Left < 0 {
					below++
				}
			}
		}
	}
	for _, name := range []string{"OpenLane", "CloseLane", "Spend", "Grant", "NewInit"} {
		if done[name] < 200 {
			t.Errorf("%s went well only %d times", name, done[name])
		}
	}
	if below < 1000 {
		t.Errorf("only %d times a Left was below 0", below)
	}
}

// A window below 0 is filled again, ahead of anything being sent.
func TestAWindowBelowNoughtIsFilledAgain(t *testing.T) {
	f := flowOf(100, 50, 3, 50)
	for _, x := range []struct {
		c          flowCall
		left, room int
	}{
		{spends(3, 45), 5, 5}, {begins(20), -25, 0}, {grants(3, 10), -15, 0}, {begins(30), -5, 0}, {grants(3, 5), 0, 0},
		{grants(3, 1), 1, 1}, {spends(3, 1), 0, 0}, {begins(0), -30, 0}, {grants(3, 100), 70, 54}, {grants(0, 46), 70, 70},
	} {
		next, ok := x.c.of(f)
		if !ok || next.Lanes[0].Left != x.left || impl.RoomOf(next, 3) != x.room || !impl.FlowOk(next) {
			t.Fatalf("%v of (%s): (%s), room %d, %v", x.c, flowTitle(f), flowTitle(next), impl.RoomOf(next, 3), ok)
		}
		checkNoFlow(t, next, spends(3, x.room+1))
		f = next
	}
}

// spareLane fills the room behind a list of Lanes, so that a write there is seen.
var spareLane = impl.Lane{Id: 7777, Left: 8888}

// roomyLanes is a list of these Lanes with spare room behind it, and all of its memory.
func roomyLanes(l []impl.Lane, spare int) ([]impl.Lane, []impl.Lane) {
	all := slices.Concat(l, slices.Repeat([]impl.Lane{spareLane}, spare))
	return all[:len(l)], all
}

// turnLanes changes each Lane of a list, those of its spare room, too.
func turnLanes(l []impl.Lane) {
	l = l[:cap(l)]
	for i := range l {
		l[i].Id ^= 0xff
		l[i].Left ^= 0xff
	}
}

// checkFlowMemory asks: nothing is written, nothing is shared, and the spare room tells nothing.
func checkFlowMemory(t *testing.T, f impl.Flow, c flowCall, spare int) {
	t.Helper()
	title := fmt.Sprintf("%v of (%s) with %d spare", c, flowTitle(f), spare)
	plain, plainOk := c.of(f)
	lanes, all := roomyLanes(f.Lanes, spare)
	before := slices.Clone(all)
	arg := impl.Flow{Conn: f.Conn, Init: f.Init, Lanes: lanes}
	one, ok := c.of(arg)
	two, _ := c.of(arg)
	same := func(how string) {
		t.Helper()
		if !sameFlow(one, plain) || ok != plainOk {
			t.Errorf("%s: the answer is another one %s", title, how)
		}
	}
	same("with spare room")
	turnLanes(two.Lanes)
	same("when that of another call is written into")
	if !slices.Equal(all, before) {
		t.Errorf("%s: the argument is written into, or shared", title)
	}
	turnLanes(all)
	same("when the argument is written into")
	turned := slices.Clone(all)
	turnLanes(one.Lanes)
	if !slices.Equal(all, turned) {
		t.Errorf("%s: the argument changes with the answer", title)
	}
}

func TestFlowsLeaveTheirArgumentsAlone(t *testing.T) {
	flows := slices.Concat(wrongFlows(), []impl.Flow{
		{}, flowOf(100, 50), flowOf(100, 50, 3, 40), flowOf(100, 50, 1, 10, 3, 40, 5, -20), flowOf(100, 50, 3, 40, 5, -20, 9, 0), flowOf(100, 50, 1, 0, 2, topWindow, 3, 40),
		manyLanes(99, 3, 2), manyLanes(100, 3, 2), manyLanes(100, 1, 2),
	})
	calls := []flowCall{
		opens(1), opens(2), opens(3), opens(4), opens(500), opens(0), opens(-1), closes(1), closes(3), closes(5), closes(9), closes(4), closes(0),
		spends(3, 0), spends(3, 7), spends(3, 40), spends(3, 41), spends(3, -1), spends(4, 1), spends(5, 0), grants(0, 1), grants(0, topWindow), grants(3, 1), grants(3, topWindow), grants(3, 0), grants(4, 1), grants(5, 9),
		begins(50), begins(0), begins(60), begins(topWindow), begins(-1),
	}
	for _, f := range flows {
		for _, c := range calls {
			for _, spare := range []int{0, 1, 2, 40} {
				checkFlowMemory(t, f, c, spare)
			}
		}
	}
}

func TestReadingAFlowWritesNothing(t *testing.T) {
	for _, f := range slices.Concat(wrongFlows(), []impl.Flow{{}, flowOf(100, 50, 1, 10, 3, 40, 5, -20), manyLanes(100, 1, 2)}) {
		for _, spare := range []int{0, 1, 40, 200} {
			lanes, all := roomyLanes(f.Lanes, spare)
			before := slices.Clone(all)
			arg := impl.Flow{Conn: f.Conn, Init: f.Init, Lanes: lanes}
			if impl.FlowOk(arg) != impl.FlowOk(f) {
				t.Errorf("FlowOk of (%s) hangs on the spare room", flowTitle(f))
			}
			for _, id := range []int{-1, 0, 1, 3, 4, 5} {
				checkRoom(t, arg, id, impl.RoomOf(f, id))
			}
			// What lies behind the list is no Lane of it.
			checkRoom(t, arg, spareLane.Id, 0)
			if !slices.Equal(all, before) {
				t.Errorf("(%s) is written into", flowTitle(f))
			}
		}
	}
}

// Two calls that go on from one Flow do not meet in the room behind its Lanes.
func TestFlowsGoOnApart(t *testing.T) {
	f := impl.FlowNew(50)
	for id := 2; id <= 40; id += 2 {
		f, _ = impl.OpenLane(f, id)
		before := impl.Flow{Conn: f.Conn, Init: f.Init, Lanes: slices.Clone(f.Lanes)}
		one, _ := impl.OpenLane(f, id+1)
		two, _ := impl.OpenLane(f, 1)
		three, _ := impl.CloseLane(f, 2)
		four, _ := impl.Spend(f, id, 50)
		five, _ := impl.Grant(f, 2, 7)
		six, _ := impl.NewInit(f, 9)
		if !sameFlow(f, before) {
			t.Fatalf("(%s), not (%s)", flowTitle(f), flowTitle(before))
		}
		last := id/2 - 1
		if one.Lanes[last+1] != (impl.Lane{Id: id + 1, Left: 50}) || two.Lanes[0] != (impl.Lane{Id: 1, Left: 50}) || two.Lanes[last+1] != (impl.Lane{Id: id, Left: 50}) || len(three.Lanes) != last || four.Lanes[last].Left != 0 || five.Lanes[0].Left != 57 || six.Lanes[last].Left != 9 {
			t.Errorf("Lane %d: (%s), (%s), (%s), (%s), (%s), (%s)", id, flowTitle(one), flowTitle(two), flowTitle(three), flowTitle(four), flowTitle(five), flowTitle(six))
		}
	}
	// Two new ones share nothing, either.
	one, two := impl.FlowNew(5), impl.FlowNew(5)
	one.Lanes = append(one.Lanes, impl.Lane{Id: 1})
	two.Lanes = append(two.Lanes, impl.Lane{Id: 2})
	if one.Lanes[0].Id != 1 || two.Lanes[0].Id != 2 {
		t.Errorf("(%s), (%s)", flowTitle(one), flowTitle(two))
	}
}

// No call keeps anything: what is refused leaves nothing behind.
func TestFlowsAnswerAlikeAgain(t *testing.T) {
	f := flowOf(100, 50, 3, 40)
	for range 3 {
		checkNoFlow(t, f, opens(3))
		checkFlow(t, f, opens(1), flowOf(100, 50, 1, 50, 3, 40))
		checkNoFlow(t, f, closes(1))
		checkNoFlow(t, f, spends(3, 41))
		checkFlow(t, f, spends(3, 40), flowOf(60, 50, 3, 0))
		checkNoFlow(t, f, grants(0, topWindow))
		checkFlow(t, f, grants(0, 1), flowOf(101, 50, 3, 40))
		checkNoFlow(t, f, begins(topWindow+1))
		checkFlow(t, f, begins(0), flowOf(100, 0, 3, -10))
		checkRoom(t, f, 3, 40)
	}
}
