package life

import (
	"fmt"
	"math"
	"math/rand"
	"testing"

	"wayleave/api"
	"wayleave/frame"
)

// The states and kinds as the document has them, written out.
const (
	idle, open, remote, local, closed, reset = 0, 1, 2, 3, 4, 5

	data, headers, priority, rst, settings = 0, 1, 2, 3, 4
	push, ping, goaway, update, cont       = 5, 6, 7, 8, 9
)

// The Faults that the chapter names, and none, their codes written out.
var (
	none         = api.Fault{}
	connProtocol = api.Fault{Bad: true, Conn: true, Code: 1}
	connClosed   = api.Fault{Bad: true, Conn: true, Code: 5}
	streamClosed = api.Fault{Bad: true, Conn: false, Code: 5}
)

// states has all states.
func states() []int {
	return []int{idle, open, remote, local, closed, reset}
}

// strangeStates has numbers that are no states.
func strangeStates() []int {
	l := []int{
		math.MinInt, math.MinInt + 1, math.MinInt + 2, math.MinInt + 3, -1 << 32, -1<<32 + 1, -1 << 31, -256, -255,
		255, 256, 257, 258, 259, 260, 1<<16 + 1, 1<<31 - 1, 1 << 31, 1<<32 + 1, 1<<32 + 3, 1 << 62, math.MaxInt - 1, math.MaxInt,
	}
	for n := 1; n <= 100; n++ {
		l = append(l, -n, 5+n)
	}
	return l
}

// strangeKinds has numbers that are no kinds of frames.
func strangeKinds() []int {
	l := []int{
		math.MinInt, math.MinInt + 1, math.MinInt + 3, math.MinInt + 8, -1 << 32, -1<<32 + 1, -1 << 31, -256, -255,
		255, 256, 257, 258, 259, 264, 1<<16 + 3, 1<<31 - 1, 1 << 31, 1 << 32, 1<<32 + 1, 1<<32 + 3, 1<<32 + 8, 1 << 62, math.MaxInt - 1, math.MaxInt,
	}
	for n := 1; n <= 100; n++ {
		l = append(l, -n, 9+n)
	}
	return l
}

// withStrange has known kinds, and those that are none.
func withStrange(known ...int) []int {
	return append(strangeKinds(), known...)
}

var both = []bool{false, true}

func TestNumbers(t *testing.T) {
	for i, n := range []int{Idle, Open, Remote, Local, Closed, Reset} {
		if n != i {
			t.Errorf("the state of the number %d: %d", i, n)
		}
	}
	for i, n := range []int{frame.Data, frame.Headers, frame.Priority, frame.Rst, frame.Settings, frame.Push, frame.Ping, frame.Goaway, frame.Update, frame.Cont} {
		if n != i {
			t.Errorf("the kind of the number %d: %d", i, n)
		}
	}
}

func TestExample(t *testing.T) {
	if s, x := Recv(idle, data, false); s != idle || x != connProtocol {
		t.Errorf("P14.1: the example: %d, %v", s, x)
	}
}

// got is what Recv answers.
type got struct {
	state int
	fault api.Fault
}

func to(state int) got {
	return got{state, none}
}

func checkRecv(t *testing.T, state, kind int, end bool, want got) {
	t.Helper()
	if s, x := Recv(state, kind, end); s != want.state || x != want.fault {
		t.Errorf("P14.1: Recv(%d, %d, %t): %d, %v, not %d, %v", state, kind, end, s, x, want.state, want.fault)
	}
}

func TestRecv(t *testing.T) {
	rows := []struct {
		state, kind   int
		without, with got // an end
	}{
		{idle, data, got{idle, connProtocol}, got{idle, connProtocol}},
		{idle, headers, to(open), to(remote)},
		{idle, priority, to(idle), to(idle)},
		{idle, rst, got{idle, connProtocol}, got{idle, connProtocol}},
		{idle, update, got{idle, connProtocol}, got{idle, connProtocol}},

		{open, data, to(open), to(remote)},
		{open, headers, to(open), to(remote)},
		{open, priority, to(open), to(open)},
		{open, rst, to(closed), to(closed)},
		{open, update, to(open), to(open)},

		{remote, data, got{remote, streamClosed}, got{remote, streamClosed}},
		{remote, headers, got{remote, streamClosed}, got{remote, streamClosed}},
		{remote, priority, to(remote), to(remote)},
		{remote, rst, to(closed), to(closed)},
		{remote, update, to(remote), to(remote)},

		{local, data, to(local), to(closed)},
		{local, headers, to(local), to(closed)},
		{local, priority, to(local), to(local)},
		{local, rst, to(closed), to(closed)},
		{local, update, to(local), to(local)},

		{closed, data, got{closed, connClosed}, got{closed, connClosed}},
		{closed, headers, got{closed, connClosed}, got{closed, connClosed}},
		{closed, priority, to(closed), to(closed)},
		{closed, rst, to(closed), to(closed)},
		{closed, update, to(closed), to(closed)},

		{reset, data, to(reset), to(reset)},
		{reset, headers, to(reset), to(reset)},
		{reset, priority, to(reset), to(reset)},
		{reset, rst, to(reset), to(reset)},
		{reset, update, to(reset), to(reset)},
	}
	if len(rows) != 6*5 {
		t.Fatalf("%d rows", len(rows))
	}
	for _, c := range rows {
		checkRecv(t, c.state, c.kind, false, c.without)
		checkRecv(t, c.state, c.kind, true, c.with)
	}
}

func TestRecvOfOtherKinds(t *testing.T) {
	for _, kind := range withStrange(settings, push, ping, goaway, cont) {
		for _, state := range states() {
			for _, end := range both {
				checkRecv(t, state, kind, end, to(state))
			}
		}
	}
}

func TestRecvOfStrangeStates(t *testing.T) {
	for _, state := range strangeStates() {
		for _, end := range both {
			for _, kind := range []int{data, headers, priority, rst, update} {
				checkRecv(t, state, kind, end, got{state, connProtocol})
			}
			for _, kind := range withStrange(settings, push, ping, goaway, cont) {
				checkRecv(t, state, kind, end, to(state))
			}
		}
	}
}

// said is what Send answers.
type said struct {
	state int
	may   bool
}

func checkSend(t *testing.T, state, kind int, end bool, want said) {
	t.Helper()
	if s, may := Send(state, kind, end); s != want.state || may != want.may {
		t.Errorf("P14.2: Send(%d, %d, %t): %d, %t, not %d, %t", state, kind, end, s, may, want.state, want.may)
	}
}

func TestSend(t *testing.T) {
	rows := []struct {
		state, kind   int
		without, with said // an end
	}{
		{idle, data, said{idle, false}, said{idle, false}},
		{idle, headers, said{idle, false}, said{idle, false}},
		{idle, rst, said{idle, false}, said{idle, false}},
		{idle, update, said{idle, false}, said{idle, false}},

		{open, data, said{open, true}, said{local, true}},
		{open, headers, said{open, true}, said{local, true}},
		{open, rst, said{reset, true}, said{reset, true}},
		{open, update, said{open, true}, said{open, true}},

		{remote, data, said{remote, true}, said{closed, true}},
		{remote, headers, said{remote, true}, said{closed, true}},
		{remote, rst, said{reset, true}, said{reset, true}},
		{remote, update, said{remote, false}, said{remote, false}},

		{local, data, said{local, false}, said{local, false}},
		{local, headers, said{local, false}, said{local, false}},
		{local, rst, said{reset, true}, said{reset, true}},
		{local, update, said{local, true}, said{local, true}},

		{closed, data, said{closed, false}, said{closed, false}},
		{closed, headers, said{closed, false}, said{closed, false}},
		{closed, rst, said{closed, false}, said{closed, false}},
		{closed, update, said{closed, false}, said{closed, false}},

		{reset, data, said{reset, false}, said{reset, false}},
		{reset, headers, said{reset, false}, said{reset, false}},
		{reset, rst, said{reset, false}, said{reset, false}},
		{reset, update, said{reset, false}, said{reset, false}},
	}
	if len(rows) != 6*4 {
		t.Fatalf("%d rows", len(rows))
	}
	for _, c := range rows {
		checkSend(t, c.state, c.kind, false, c.without)
		checkSend(t, c.state, c.kind, true, c.with)
	}
}

func TestSendOfOtherKinds(t *testing.T) {
	for _, kind := range withStrange(priority, settings, push, ping, goaway, cont) {
		for _, state := range states() {
			for _, end := range both {
				checkSend(t, state, kind, end, said{state, true})
			}
		}
	}
}

func TestSendOfStrangeStates(t *testing.T) {
	for _, state := range strangeStates() {
		for _, end := range both {
			for _, kind := range []int{data, headers, rst, update} {
				checkSend(t, state, kind, end, said{state, false})
			}
			for _, kind := range withStrange(priority, settings, push, ping, goaway, cont) {
				checkSend(t, state, kind, end, said{state, true})
			}
		}
	}
}

// stream is a plain model: which halves may still speak, in place of a state.
type stream struct {
	begun, theirs, ours, cut bool
}

// modelOf is the stream of a state.
func modelOf(state int) stream {
	return []stream{
		{},
		{begun: true, theirs: true, ours: true},
		{begun: true, ours: true},
		{begun: true, theirs: true},
		{begun: true},
		{begun: true, cut: true},
	}[state]
}

// state is the number of the stream.
func (m stream) state() int {
	switch {
	case !m.begun:
		return idle
	case m.cut:
		return reset
	case m.theirs && m.ours:
		return open
	case m.ours:
		return remote
	case m.theirs:
		return local
	}
	return closed
}

// recv is what comes from the other side.
func (m stream) recv(kind int, end bool) (stream, api.Fault) {
	counts := kind == data || kind == headers || kind == rst || kind == update
	speaks := kind == data || kind == headers
	switch {
	case !counts || m.cut:
		return m, none
	case !m.begun && kind != headers:
		return m, connProtocol
	case !m.begun:
		return stream{begun: true, theirs: !end, ours: true}, none
	case kind == rst:
		return stream{begun: true}, none
	case speaks && !m.theirs && m.ours:
		return m, streamClosed
	case speaks && !m.theirs:
		return m, connClosed
	case speaks && end:
		m.theirs = false
	}
	return m, none
}

// send is what this side says.
func (m stream) send(kind int, end bool) (stream, bool) {
	switch kind {
	case data, headers:
		if !m.ours {
			return m, false
		}
		m.ours = !end
	case rst:
		if !m.ours && !m.theirs {
			return m, false
		}
		return stream{begun: true, cut: true}, true
	case update:
		return m, m.theirs
	}
	return m, true
}

func TestAgainstHalves(t *testing.T) {
	for _, state := range states() {
		m := modelOf(state)
		if m.state() != state {
			t.Fatalf("the model of %d is of %d", state, m.state())
		}
		for kind := -300; kind <= 300; kind++ {
			for _, end := range both {
				next, fault := m.recv(kind, end)
				checkRecv(t, state, kind, end, got{next.state(), fault})
				next, may := m.send(kind, end)
				checkSend(t, state, kind, end, said{next.state(), may})
			}
		}
	}
}

// TestLongRows goes from Idle on, whatever comes, and far beyond the end.
func TestLongRows(t *testing.T) {
	r := rand.New(rand.NewSource(14))
	seen := map[int]int{}
	for range 3000 {
		state, m := Idle, stream{}
		for range 40 {
			kind, end := r.Intn(12)-1, r.Intn(3) == 0
			if r.Intn(2) == 0 {
				next, fault := m.recv(kind, end)
				checkRecv(t, state, kind, end, got{next.state(), fault})
				state, _ = Recv(state, kind, end)
				m = next
			} else {
				next, may := m.send(kind, end)
				checkSend(t, state, kind, end, said{next.state(), may})
				state, _ = Send(state, kind, end)
				m = next
			}
			seen[state]++
		}
	}
	for _, state := range states() {
		if seen[state] < 100 {
			t.Errorf("the state %d was there %d times alone", state, seen[state])
		}
	}
	if len(seen) != 6 {
		t.Errorf("states that were there: %v", seen)
	}
}

// step is one Recv or Send.
type step struct {
	ours bool
	kind int
	end  bool
}

// do is the state behind a step, and whether the step was right.
func (s step) do(state int) (int, bool) {
	if s.ours {
		return Send(state, s.kind, s.end)
	}
	next, x := Recv(state, s.kind, s.end)
	return next, !x.Bad
}

func (s step) String() string {
	return fmt.Sprintf("%s of %d, %t", map[bool]string{false: "Recv", true: "Send"}[s.ours], s.kind, s.end)
}

// steps has each kind, and some that are none, either way.
func steps() []step {
	var l []step
	for _, kind := range withStrange(data, headers, priority, rst, settings, push, ping, goaway, update, cont) {
		for _, end := range both {
			l = append(l, step{false, kind, end}, step{true, kind, end})
		}
	}
	return l
}

func TestNothingLeadsOut(t *testing.T) {
	r := rand.New(rand.NewSource(143))
	l := steps()
	for _, first := range []int{closed, reset} {
		state := first
		for range 20 {
			r.Shuffle(len(l), func(i, j int) { l[i], l[j] = l[j], l[i] })
			for _, s := range l {
				if state, _ = s.do(state); state != first {
					t.Fatalf("P14.3: %v leads out of %d: %d", s, first, state)
				}
			}
		}
	}
}

// TestWhatIsWrongLeadsNowhere holds each step that is a fault, or may not be,
// and each one of a state that is none.
func TestWhatIsWrongLeadsNowhere(t *testing.T) {
	for _, state := range append(strangeStates(), states()...) {
		for _, s := range steps() {
			next, right := s.do(state)
			if !right && next != state {
				t.Errorf("P14.1, P14.2: %v from %d is wrong and leads to %d", s, state, next)
			}
			if next != state && (next < idle || next > reset || state < idle || state > reset) {
				t.Errorf("P14.1, P14.2: %v from %d leads to %d", s, state, next)
			}
		}
	}
}

// stage is a step, and the state behind it.
type stage struct {
	step
	state int
}

func theirs(kind int, end bool, state int) stage {
	return stage{step{false, kind, end}, state}
}

func ours(kind int, end bool, state int) stage {
	return stage{step{true, kind, end}, state}
}

// lives has whole requests and their answers.
func lives() [][]stage {
	return [][]stage{
		{ // The other side ends first: Idle, Open, Remote, Closed.
			theirs(priority, false, idle), theirs(headers, false, open), theirs(data, false, open),
			ours(update, false, open), ours(headers, false, open), theirs(update, false, open), ours(data, false, open),
			theirs(data, true, remote), theirs(update, false, remote), theirs(priority, false, remote),
			ours(data, false, remote), ours(data, true, closed),
			theirs(update, false, closed), theirs(priority, false, closed), theirs(rst, false, closed),
		},
		{ // This side ends first: Idle, Open, Local, Closed.
			theirs(headers, false, open), ours(headers, false, open), ours(data, true, local),
			ours(update, false, local), theirs(update, false, local), theirs(data, false, local), theirs(data, true, closed),
		},
		{ // Trailers end each side.
			theirs(headers, false, open), theirs(headers, true, remote),
			ours(headers, false, remote), ours(data, false, remote), ours(headers, true, closed),
		},
		{ // Trailers, this side's first.
			theirs(headers, false, open), ours(headers, false, open), ours(headers, true, local), theirs(headers, true, closed),
		},
		{ // No more than a request and its answer.
			theirs(headers, true, remote), ours(headers, true, closed),
		},
		{ // The answer is there ahead of the request's end.
			theirs(headers, false, open), ours(headers, true, local), theirs(headers, false, local), theirs(data, true, closed),
		},
	}
}

// through goes through l, and then through more.
func through(t *testing.T, l []stage, more ...stage) {
	t.Helper()
	state := Idle
	for i, s := range append(append([]stage{}, l...), more...) {
		next, right := s.do(state)
		if next != s.state || !right {
			t.Errorf("P14.1, P14.2: step %d, %v from %d: %d, %t, not %d, true", i, s.step, state, next, right, s.state)
			return
		}
		state = next
	}
}

// last is the state behind l.
func last(l []stage) int {
	if len(l) == 0 {
		return idle
	}
	return l[len(l)-1].state
}

func TestLives(t *testing.T) {
	for _, l := range lives() {
		through(t, l)
	}
}

// TestLivesCut cuts each life by a Rst of either side, at each place.
func TestLivesCut(t *testing.T) {
	for _, l := range lives() {
		for n := range len(l) + 1 {
			switch ahead := l[:n]; last(ahead) {
			case idle:
				through(t, ahead)
				checkRecv(t, idle, rst, false, got{idle, connProtocol})
				checkSend(t, idle, rst, false, said{idle, false})
			case closed:
				through(t, ahead, theirs(rst, false, closed))
				checkSend(t, closed, rst, false, said{closed, false})
			default:
				through(t, ahead, theirs(rst, false, closed), theirs(rst, false, closed), theirs(update, false, closed))
				through(t, ahead, ours(rst, false, reset), theirs(rst, false, reset), theirs(data, true, reset), theirs(headers, false, reset))
			}
		}
	}
}

// TestNothingIsKept asks all once more, in another order, behind other calls.
func TestNothingIsKept(t *testing.T) {
	type asked struct {
		step
		state, next int
		right       bool
	}
	var l []asked
	for _, state := range append(strangeStates(), states()...) {
		for _, s := range steps() {
			next, right := s.do(state)
			l = append(l, asked{s, state, next, right})
		}
	}
	r := rand.New(rand.NewSource(5))
	r.Shuffle(len(l), func(i, j int) { l[i], l[j] = l[j], l[i] })
	for _, a := range l {
		if next, right := a.do(a.state); next != a.next || right != a.right {
			t.Errorf("P0.5: %v from %d: %d, %t, and before %d, %t", a.step, a.state, next, right, a.next, a.right)
		}
	}
}
