package state_test

import (
	"fmt"
	"strings"

	"herald/state"
)

// The numbers stand here as the chapter gives them, so that a constant that moved is seen.
const (
	states   = 7
	kinds    = 8
	least    = -1 << 63
	greatest = 1<<63 - 1

	protocolError = 1
	streamClosed  = 5
)

var stateNames = []string{"Idle", "ReservedLocal", "ReservedRemote", "Open", "HalfLocal", "HalfRemote", "Closed"}

var kindNames = []string{"Headers", "HeadersEnd", "Data", "DataEnd", "Promise", "Reset", "Window", "Priority"}

// The chapter's two tables, word for word.
const sentTable = `
| Idle | Open | HalfLocal | Barred | Barred | ReservedLocal | Barred | Barred | Fine |
| ReservedLocal | HalfRemote | Closed | Barred | Barred | Barred | Closed | Barred | Fine |
| ReservedRemote | Barred | Barred | Barred | Barred | Barred | Closed | Fine | Fine |
| Open | Fine | HalfLocal | Fine | HalfLocal | Barred | Closed | Fine | Fine |
| HalfLocal | Barred | Barred | Barred | Barred | Barred | Closed | Fine | Fine |
| HalfRemote | Fine | Closed | Fine | Closed | Barred | Closed | Fine | Fine |
| Closed | Barred | Barred | Barred | Barred | Barred | Barred | Barred | Fine |
`

const gotTable = `
| Idle | Open | HalfRemote | P | P | ReservedRemote | P | P | Fine |
| ReservedLocal | P | P | P | P | P | Closed | Fine | Fine |
| ReservedRemote | HalfLocal | Closed | P | P | P | Closed | P | Fine |
| Open | Fine | HalfRemote | Fine | HalfRemote | P | Closed | Fine | Fine |
| HalfLocal | Fine | Closed | Fine | Closed | P | Closed | Fine | Fine |
| HalfRemote | S | S | S | S | P | Closed | Fine | Fine |
| Closed | C | C | C | C | P | Ignored | Ignored | Ignored |
`

// cell is the word of a table at a state and a kind, both in range.
func cell(table string, s, kind int) string {
	row := strings.Split(strings.TrimSpace(table), "\n")[s]
	words := strings.Split(strings.Trim(row, "| "), " | ")
	if len(words) != kinds+1 || words[0] != stateNames[s] {
		panic("the row is not that state's: " + row)
	}
	return words[kind]
}

// answer is what a call of Next answers.
type answer struct {
	s int
	v state.Verdict
}

func next(s int, e state.Event) answer {
	n, v := state.Next(s, e)
	return answer{n, v}
}

// model is Next by the tables.
func model(s int, e state.Event) answer {
	if s < 0 || s >= states || e.Kind < 1 || e.Kind > kinds {
		return answer{s, state.Verdict{Kind: 4}}
	}
	table := sentTable
	if e.Got {
		table = gotTable
	}
	return ofCell(cell(table, s, e.Kind), s)
}

func ofCell(word string, s int) answer {
	switch word {
	case "Fine":
		return answer{s: s}
	case "Ignored":
		return answer{s, state.Verdict{Kind: 1}}
	case "S":
		return answer{s, state.Verdict{Kind: 2, Code: streamClosed}}
	case "P":
		return answer{s, state.Verdict{Kind: 3, Code: protocolError}}
	case "C":
		return answer{s, state.Verdict{Kind: 3, Code: streamClosed}}
	case "Barred":
		return answer{s, state.Verdict{Kind: 4}}
	}
	for n, name := range stateNames {
		if name == word {
			return answer{s: n}
		}
	}
	panic("no word of the tables: " + word)
}

// events are all events of all kinds, sent and got.
func events() []state.Event {
	var all []state.Event
	for kind := 1; kind <= kinds; kind++ {
		all = append(all, state.Event{Kind: kind}, state.Event{Got: true, Kind: kind})
	}
	return all
}

func tell(e state.Event) string {
	way := "sent "
	if e.Got {
		way = "got "
	}
	if e.Kind < 1 || e.Kind > kinds {
		return fmt.Sprint(way, "kind ", e.Kind)
	}
	return way + kindNames[e.Kind-1]
}

// book is a stream by the words of P10.2: it knows no states.
type book struct {
	born, passed   bool // passed: HEADERS have passed
	weMay, theyMay bool
}

func (b book) closed() bool { return b.born && !b.weMay && !b.theyMay }

// allows tells whether the words let the event be Fine; of Priority they say nothing.
func (b book) allows(e state.Event) bool {
	mayThis, mayOther := b.weMay, b.theyMay
	if e.Got {
		mayThis, mayOther = b.theyMay, b.weMay
	}
	switch e.Kind {
	case 1, 2:
		return !b.born || mayThis
	case 3, 4:
		return mayThis && b.passed
	case 5:
		return !b.born
	case 6:
		return b.born && !b.closed()
	case 7:
		return b.born && !b.closed() && (b.passed || mayOther)
	}
	panic("the words say nothing of it")
}

// write is the book behind a Fine event.
func (b book) write(e state.Event) book {
	switch e.Kind {
	case 1, 2:
		if !b.born {
			b.born, b.weMay, b.theyMay = true, true, true
		}
		b.passed = true
	case 5:
		b.born, b.weMay, b.theyMay = true, !e.Got, e.Got
	case 6:
		b.weMay, b.theyMay = false, false
	}
	if e.Kind == 2 || e.Kind == 4 {
		b.weMay, b.theyMay = b.weMay && e.Got, b.theyMay && !e.Got
	}
	return b
}

// state is the one that the states' own remarks give for what the book holds.
func (b book) state() int {
	switch {
	case !b.born:
		return 0
	case b.closed():
		return 6
	case b.weMay && b.theyMay:
		return 3
	case b.weMay && !b.passed:
		return 1
	case b.theyMay && !b.passed:
		return 2
	case b.theyMay:
		return 4
	}
	return 5
}

// mirror is the state that the other end holds.
func mirror(s int) int { return []int{0, 2, 1, 3, 5, 4, 6}[s] }
