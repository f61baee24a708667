package pack

import (
	"slices"

	"herald/api"
	"herald/pint"
	"herald/table"
	"herald/text"
)

// Encoder makes header blocks.
type Encoder struct {
	table *table.Table
	// The last and the least max since the last block, that of the table then
	// among them: so nothing is to be told till SetMax is called.
	last, least int64
}

// NewEncoder is one whose table has a max of 4096.
func NewEncoder() *Encoder {
	return &Encoder{table: newTable(), last: firstMax, least: firstMax}
}

// SetMax gives the table another max, from the next block on.
func (e *Encoder) SetMax(n int64) {
	e.last = within(n, firstMax)
	e.least = min(e.least, e.last)
}

// Encode is the next block.
func (e *Encoder) Encode(l []api.Field) (string, api.Errno) {
	if slices.ContainsFunc(l, isLong) {
		return "", api.ErrLong
	}
	out := []byte(e.changes())
	for _, f := range l {
		out = append(out, e.field(f)...)
	}
	return string(out), api.OK
}

// isLong tells whether text would refuse the field; it is asked of all fields
// ahead of the first, as a refused list may change nothing.
func isLong(f api.Field) bool {
	return len(f.Name) > api.MaxString || len(f.Value) > api.MaxString
}

// changes tells the least max too, where the last one hides it: the other end
// has to let go the entries that went by it.
func (e *Encoder) changes() string {
	out := ""
	if e.least < min(e.table.Max(), e.last) {
		out = e.change(e.least)
	}
	if e.last != e.table.Max() {
		out += e.change(e.last)
	}
	e.least = e.last
	return out
}

func (e *Encoder) change(max int64) string {
	e.table.Resize(max)
	return begin(resized, max)
}

// field tells one field and does to the table what the other end will do to its own.
func (e *Encoder) field(f api.Field) string {
	i, whole := e.table.Find(f.Name, f.Value)
	switch {
	case f.Never:
		return literal(never, i, f)
	case whole:
		return begin(indexed, int64(i))
	case size(f) > e.table.Max():
		return literal(passing, i, f)
	}
	e.table.Add(f.Name, f.Value)
	return literal(added, i, f)
}

// literal tells a field's value, and its name where no entry has it.
func literal(form, i int, f api.Field) string {
	out := begin(form, int64(i))
	if i == 0 {
		out += shorter(f.Name)
	}
	return out + shorter(f.Value)
}

// begin tells a form's first bits and its number. There is no error to pass on:
// indexes and maxes are far below what pint refuses.
func begin(form int, v int64) string {
	first := forms[form]
	b, _ := pint.Put(first.prefix, first.bits<<first.prefix, v)
	return b
}

// shorter has no error to pass on: isLong was asked.
func shorter(s string) string {
	b, _ := text.Put(s, text.Shorter)
	return b
}

// Table is a copy of the table.
func (e *Encoder) Table() *table.Table { return e.table.Copy() }
