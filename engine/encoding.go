package engine

import (
	"giro/api"
	"giro/calendar"
	"giro/codec"
	"giro/corpaction"
	"giro/fraction"
	"giro/message"
	"giro/refdata"
	"giro/schedule"
)

// EncodeCommand returns the encoding of a command.
func EncodeCommand(c Command) ([]byte, api.Errno) {
	if code := c.Check(); code != api.OK {
		return nil, code
	}
	return encodeCommand(c), api.OK
}

// DecodeCommand returns the command with an encoding.
func DecodeCommand(b []byte) (Command, api.Errno) {
	r := codec.NewReader(b)
	c := Command{Kind: readInt(r), Clock: readClock(r)}
	c.Member = refdata.Member{Code: r.String(), LEI: r.String(), Active: r.Bool()}
	c.Security = refdata.Security{ISIN: r.String(), Issuer: r.String(), Lot: r.Int(), Active: r.Bool()}
	c.From, c.To, c.Asset, c.Amount = r.String(), r.String(), r.String(), r.Int()
	c.Ratio = readFraction(r)
	c.Request = message.Request{Op: readInt(r), Sender: r.String(), Ref: r.String(), Instruction: readInstruction(r), Amendment: readAmendment(r)}
	c.Action = readAction(r)
	if code := r.End(); code != api.OK {
		return Command{}, code
	}
	if code := c.Check(); code != api.OK {
		return Command{}, code
	}
	return c, api.OK
}

// EncodeEvent returns the encoding of an event.
func EncodeEvent(x Event) ([]byte, api.Errno) { return encodeEvent(x), api.OK }

// Snapshot returns the encodings of all accepted commands.
func (e *Engine) Snapshot() ([]byte, api.Errno) {
	if e.unusable() {
		return nil, api.ErrArgument
	}
	w := codec.NewWriter()
	codec.WriteSlice(w, e.commands, func(w *codec.Writer, c Command) { w.Blob(encodeCommand(c)) })
	return w.Bytes(), api.OK
}

// Restore returns the state after the commands of a snapshot.
func Restore(cal *calendar.Calendar, s schedule.Schedule, b []byte) (*Engine, api.Errno) {
	e, code := New(cal, s)
	if code != api.OK {
		return nil, code
	}
	r := codec.NewReader(b)
	commands := codec.ReadSlice(r, MaxCommands, (*codec.Reader).Blob)
	if code := r.End(); code != api.OK {
		return nil, code
	}
	for _, encoded := range commands {
		c, code := DecodeCommand(encoded)
		if code != api.OK {
			return nil, code
		}
		if _, code := e.Step(c); code != api.OK {
			return nil, code
		}
	}
	return e, api.OK
}

// encodeCommand returns the encoding of any command.
func encodeCommand(c Command) []byte {
	w := codec.NewWriter()
	w.Int(int64(c.Kind))
	writeClock(w, c.Clock)
	w.String(c.Member.Code)
	w.String(c.Member.LEI)
	w.Bool(c.Member.Active)
	w.String(c.Security.ISIN)
	w.String(c.Security.Issuer)
	w.Int(c.Security.Lot)
	w.Bool(c.Security.Active)
	w.String(c.From)
	w.String(c.To)
	w.String(c.Asset)
	w.Int(c.Amount)
	writeFraction(w, c.Ratio)
	w.Int(int64(c.Request.Op))
	w.String(c.Request.Sender)
	w.String(c.Request.Ref)
	writeInstruction(w, c.Request.Instruction)
	writeAmendment(w, c.Request.Amendment)
	writeAction(w, c.Action)
	return w.Bytes()
}

// encodeEvent returns the encoding of any event.
func encodeEvent(x Event) []byte {
	w := codec.NewWriter()
	w.Int(int64(x.Seq))
	writeClock(w, x.Clock)
	w.Int(int64(x.Kind))
	w.String(x.Ref)
	w.Int(x.Amount)
	codec.WriteSlice(w, x.Postings, func(w *codec.Writer, p api.Posting) {
		w.String(p.Account.Owner)
		w.Int(int64(p.Account.Kind))
		w.String(p.Account.Asset)
		w.Int(p.Delta)
	})
	return w.Bytes()
}

func writeClock(w *codec.Writer, c api.Clock) {
	w.Int(int64(c.Day))
	w.Int(int64(c.Minute))
}

func writeFraction(w *codec.Writer, f fraction.Fraction) {
	w.Int(f.Num)
	w.Int(f.Den)
}

func writeInstruction(w *codec.Writer, i message.Instruction) {
	w.String(i.Ref)
	w.Int(int64(i.Kind))
	w.String(i.Sender)
	w.String(i.Counterparty)
	w.Int(int64(i.Side))
	w.String(i.Asset)
	w.Int(i.Quantity)
	w.Int(i.Amount)
	w.Int(int64(i.TradeDay))
	w.Int(int64(i.SettleDay))
	w.Int(int64(i.Priority))
	w.Bool(i.Partial)
	w.Int(i.MinLot)
	w.Bool(i.Hold)
	w.Bool(i.Reserve)
	codec.WriteSlice(w, i.Links, func(w *codec.Writer, l message.Link) {
		w.Int(int64(l.Type))
		w.String(l.Ref)
	})
}

func writeAmendment(w *codec.Writer, a message.Amendment) {
	w.Bool(a.HasAmount)
	w.Bool(a.HasSettleDay)
	w.Bool(a.HasPriority)
	w.Bool(a.HasPartial)
	w.Int(a.Amount)
	w.Int(int64(a.SettleDay))
	w.Int(int64(a.Priority))
	w.Bool(a.Partial)
	w.Int(a.MinLot)
}

func writeAction(w *codec.Writer, a corpaction.Event) {
	w.String(a.Id)
	w.Int(int64(a.Kind))
	w.String(a.Issuer)
	w.String(a.Asset)
	w.String(a.Into)
	writeFraction(w, a.Ratio)
	writeFraction(w, a.Cash)
	w.Int(a.Price)
	w.Int(int64(a.ExDay))
	w.Int(int64(a.RecordDay))
	w.Int(int64(a.PayDay))
}

// readInt reads a number that must be an int.
func readInt(r *codec.Reader) int {
	x := r.Int()
	if int64(int(x)) != x {
		r.Fail(api.ErrRange)
		return 0
	}
	return int(x)
}

func readClock(r *codec.Reader) api.Clock {
	day := readInt(r)
	return api.Clock{Day: day, Minute: readInt(r)}
}

func readFraction(r *codec.Reader) fraction.Fraction {
	num := r.Int()
	return fraction.Fraction{Num: num, Den: r.Int()}
}

func readInstruction(r *codec.Reader) message.Instruction {
	var i message.Instruction
	i.Ref = r.String()
	i.Kind = readInt(r)
	i.Sender = r.String()
	i.Counterparty = r.String()
	i.Side = readInt(r)
	i.Asset = r.String()
	i.Quantity = r.Int()
	i.Amount = r.Int()
	i.TradeDay = readInt(r)
	i.SettleDay = readInt(r)
	i.Priority = readInt(r)
	i.Partial = r.Bool()
	i.MinLot = r.Int()
	i.Hold = r.Bool()
	i.Reserve = r.Bool()
	i.Links = codec.ReadSlice(r, message.MaxLinks, func(r *codec.Reader) message.Link {
		kind := readInt(r)
		return message.Link{Type: kind, Ref: r.String()}
	})
	return i
}

func readAmendment(r *codec.Reader) message.Amendment {
	var a message.Amendment
	a.HasAmount = r.Bool()
	a.HasSettleDay = r.Bool()
	a.HasPriority = r.Bool()
	a.HasPartial = r.Bool()
	a.Amount = r.Int()
	a.SettleDay = readInt(r)
	a.Priority = readInt(r)
	a.Partial = r.Bool()
	a.MinLot = r.Int()
	return a
}

func readAction(r *codec.Reader) corpaction.Event {
	var a corpaction.Event
	a.Id = r.String()
	a.Kind = readInt(r)
	a.Issuer = r.String()
	a.Asset = r.String()
	a.Into = r.String()
	a.Ratio = readFraction(r)
	a.Cash = readFraction(r)
	a.Price = r.Int()
	a.ExDay = readInt(r)
	a.RecordDay = readInt(r)
	a.PayDay = readInt(r)
	return a
}
